/-
  Character references, as lists of bytes. lg: what the longest name is and stands for. No program in sight.
-/
import Derived.Test.YtnfccckodgknjaaGreatDoorY27
import Derived.Test.YtnfccckodgknjaaGreatDoorY11
import Derived.Test.YtnfccckodgknjaaGreatDoorY01
import Derived.Laws.Cover4
namespace Go.Proofs.YtnfccckodgknjaaGreatDoor
open Go.Lib

def alU (b : UInt8) : Bool := alnB b.toNat
def endsRef (t : List UInt8) : Bool := match t with | [] => false | d :: _ => alU d || d == 61
def encT8 (r : Int) : List UInt8 := (Utf8.encode r).data.toList
theorem encT8_len (r : Int) : (encT8 r).length ≤ 4 := by unfold encT8; rw [Array.length_toList]; exact encode_size_le r
def namedL (lg : List UInt8 → Nat × List UInt8) (attr : Bool) (t : List UInt8) : List UInt8 × Nat :=
  if (lg t).1 = 0 then ([38], 0)
  else if attr && !(hasSuffix (t.take (lg t).1) [59]) && endsRef (t.drop (lg t).1) then (38 :: t.take (lg t).1, (lg t).1)
  else ((lg t).2, (lg t).1)
theorem namedL_0 {lg : List UInt8 → Nat × List UInt8} {attr : Bool} {t : List UInt8} {N : Nat} (hN : N = (lg t).1) (h : N = 0) : namedL lg attr t = ([38], 0) := by
  unfold namedL
  rw [if_pos (hN.symm.trans h)]
theorem namedL_c {lg : List UInt8 → Nat × List UInt8} {attr c : Bool} {t : List UInt8} {N : Nat} (hN : N = (lg t).1) (h : ¬ N = 0) (hc : (attr && !(hasSuffix (t.take N) [59]) && endsRef (t.drop N)) = c) :
    namedL lg attr t = if c then (38 :: t.take N, N) else ((lg t).2, N) := by
  subst hN
  unfold namedL
  rw [if_neg h, hc]
/-- Behind the "#" and o bytes more, in front of which the opening stands. -/
def digitsL (opening : List UInt8) (o : Nat) (r : Int × Nat) (t : List UInt8) : List UInt8 × Nat :=
  if r.2 = 0 then (opening, o) else (encT8 (cpZ r.1), o + r.2 + (if (t.drop r.2).head? = some 59 then 1 else 0))
def hexMark (b : UInt8) : Bool := b == 120 || b == 88
def numericL (t : List UInt8) : List UInt8 × Nat :=
  match t with
  | [] => digitsL [38, 35] 0 (digRun digB 10 t 0 0) t
  | c :: r => if hexMark c then digitsL [38, 35, c] 1 (digRun hexB 16 r 0 0) r else digitsL [38, 35] 0 (digRun digB 10 t 0 0) t
def refL (lg : List UInt8 → Nat × List UInt8) (attr : Bool) (t : List UInt8) : List UInt8 × Nat :=
  match t with
  | [] => ([38], 0)
  | c :: r => if alU c then namedL lg attr t else if c = 35 then ((numericL r).1, (numericL r).2 + 1) else ([38], 0)
end Go.Proofs.YtnfccckodgknjaaGreatDoor
