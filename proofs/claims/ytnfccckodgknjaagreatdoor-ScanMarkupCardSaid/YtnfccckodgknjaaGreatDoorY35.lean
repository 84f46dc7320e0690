/-
  Character references, as lists of bytes. lg: what the longest name is and stands for. No program in sight.
  The longest name of the table that a string begins with: what its readers need to know of it. No program in sight.
  The digits of a number, with zeros ahead, as a numeric reference.
  The document's reader of character references.
  The constants of the scanner's examples: what the readers' descriptions say of them. No program in sight.
  A byte that no reference goes on with ends it. No program in sight.
  Names of the table are read back: those that end with ";" whatever follows, the others if a space follows. No program in sight.
  A value that is escaped and put in quotes is read back. No program in sight.
  Attributes that are written with quotes are read back. No program in sight.
-/
import Derived.Test.YtnfccckodgknjaaGreatDoorY27
import Derived.Test.YtnfccckodgknjaaGreatDoorY11
import Derived.Test.YtnfccckodgknjaaGreatDoorY01
import Derived.Laws.Cover4
import Derived.Test.YtnfccckodgknjaaGreatDoorY23
import Derived.Test.YtnfccckodgknjaaGreatDoorY22
import Derived.Test.YtnfccckodgknjaaGreatDoorY32
import Derived.Test.YtnfccckodgknjaaGreatDoorY24
import Derived.Test.YtnfccckodgknjaaGreatDoorY21
import Derived.Test.YtnfccckodgknjaaGreatDoorY09
namespace Go.Proofs.YtnfccckodgknjaaGreatDoor
open Go.Lib

def alU (b : UInt8) : Bool := alnB b.toNat
def endsRef (t : List UInt8) : Bool := match t with | [] => false | d :: _ => alU d || d == 61
def encT8 (r : Int) : List UInt8 := (Utf8.encode r).data.toList
theorem encT8_len (r : Int) : (encT8 r).length ≤ 4 := by unfold encT8; rw [Array.length_toList]; exact encode_size_le r
def namedL (lg : List UInt8 → Nat × List UInt8) (attr : Bool) (t : List UInt8) : List UInt8 × Nat :=
  if (lg t).1 = 0 then ([38], 0)
  else if attr && !(hasSuffix (t.take (lg t).1) [59]) && endsRef (t.drop (lg t).1) then (38 :: t.take (lg t).1, (lg t).1)
  else ((lg t).2, (lg t).1)
theorem namedL_0 {lg : List UInt8 → Nat × List UInt8} {attr : Bool} {t : List UInt8} {N : Nat} (hN : N = (lg t).1) (h : N = 0) : namedL lg attr t = ([38], 0) := by
  unfold namedL
  rw [if_pos (hN.symm.trans h)]
theorem namedL_c {lg : List UInt8 → Nat × List UInt8} {attr c : Bool} {t : List UInt8} {N : Nat} (hN : N = (lg t).1) (h : ¬ N = 0) (hc : (attr && !(hasSuffix (t.take N) [59]) && endsRef (t.drop N)) = c) :
    namedL lg attr t = if c then (38 :: t.take N, N) else ((lg t).2, N) := by
  subst hN
  unfold namedL
  rw [if_neg h, hc]
/-- Behind the "#" and o bytes more, in front of which the opening stands. -/
def digitsL (opening : List UInt8) (o : Nat) (r : Int × Nat) (t : List UInt8) : List UInt8 × Nat :=
  if r.2 = 0 then (opening, o) else (encT8 (cpZ r.1), o + r.2 + (if (t.drop r.2).head? = some 59 then 1 else 0))
def hexMark (b : UInt8) : Bool := b == 120 || b == 88
def numericL (t : List UInt8) : List UInt8 × Nat :=
  match t with
  | [] => digitsL [38, 35] 0 (digRun digB 10 t 0 0) t
  | c :: r => if hexMark c then digitsL [38, 35, c] 1 (digRun hexB 16 r 0 0) r else digitsL [38, 35] 0 (digRun digB 10 t 0 0) t
def refL (lg : List UInt8 → Nat × List UInt8) (attr : Bool) (t : List UInt8) : List UInt8 × Nat :=
  match t with
  | [] => ([38], 0)
  | c :: r => if alU c then namedL lg attr t else if c = 35 then ((numericL r).1, (numericL r).2 + 1) else ([38], 0)
end Go.Proofs.YtnfccckodgknjaaGreatDoor

namespace Go.Proofs.YtnfccckodgknjaaGreatDoor
open Go.Lib
set_option maxRecDepth 100000

/-- lg tells the longest name and its value. -/
structure LgOk (lg : List UInt8 → Nat × List UInt8) : Prop where
  ok : ∀ (s : List UInt8) (n : Int) (V : ByteArray), LgP s n V → n = ((lg s).1 : Nat) ∧ V.data.toList = (lg s).2
  le : ∀ s : List UInt8, (lg s).1 ≤ s.length
  len : ∀ s : List UInt8, (lg s).2.length ≤ 404
  al : ∀ s : List UInt8, ∀ x ∈ s.take (lg s).1, alU x = true ∨ x = 59
  cut : ∀ u c r, alU c = false → c ≠ 59 → lg (u ++ c :: r) = lg u

theorem valL_len (l : List UInt8) : (valL l).length ≤ 4 * (l.length + 1) := by
  have h1 : ∀ (c : UInt8) (l : List UInt8), (parts c l).length ≤ l.length + 1 := by
    intro c l
    induction l with
    | nil => simp [parts]
    | cons b t ih =>
      unfold parts
      split
      · simp only [List.length_cons]; omega
      · split
        · simp
        · rename_i h
          rw [h] at ih
          simp only [List.length_cons] at ih ⊢
          omega
  have h2 : ∀ ps : List (List UInt8), (ps.flatMap fun p => encodeRune (codeOf p)).length ≤ 4 * ps.length := by
    intro ps
    induction ps with
    | nil => simp
    | cons p ps ih =>
      have := encode_le (codeOf p)
      simp only [List.flatMap_cons, List.length_append, List.length_cons]
      omega
  have := h2 (parts 44 l)
  have := h1 44 l
  unfold valL
  omega
theorem lgL_cases (s : List UInt8) : lgL s = (0, []) ∨ ∃ e ∈ ENT, nameOf e <+: s ∧ lgL s = ((nameOf e).length, valL (codesOf e)) := by
  unfold lgL lgT
  rcases lgStep_spec s ENT (0, []) with ⟨h1, h2⟩ | ⟨e1, he1, h1, h2, h3, h4⟩
  · exact .inl h1
  · exact .inr ⟨e1, he1, h1, h2⟩
theorem name_al {e : List UInt8} (he : e ∈ ENT) : ∀ x ∈ nameOf e, alU x = true ∨ x = 59 := by
  intro x hx
  have := List.all_eq_true.1 (ent_parts5 he).2.1 x hx
  simpa [alU] using this
theorem pre_cut {n u r : List UInt8} {c : UInt8} (hn : ∀ x ∈ n, x ≠ c) : n.isPrefixOf (u ++ c :: r) = n.isPrefixOf u := by
  induction n generalizing u with
  | nil => cases u <;> simp [List.isPrefixOf]
  | cons a n ih =>
    cases u with
    | nil =>
      have : a ≠ c := hn a (by simp)
      simp [List.isPrefixOf, this]
    | cons b u =>
      simp only [List.cons_append, List.isPrefixOf]
      rw [ih fun x hx => hn x (by simp [hx])]
theorem fold_same {s s' : List UInt8} : ∀ (T : List (List UInt8)) (a : Nat × List UInt8), (∀ e ∈ T, (nameOf e).isPrefixOf s = (nameOf e).isPrefixOf s') → T.foldl (lgStep s) a = T.foldl (lgStep s') a
  | [], _, _ => rfl
  | e :: T, a, h => by
    rw [List.foldl_cons, List.foldl_cons, fold_same T _ fun x hx => h x (by simp [hx])]
    congr 1
    unfold lgStep
    rw [h e (by simp)]
theorem lgOk : LgOk lgL := by
  refine ⟨fun _ _ _ h => lgP_lgL h, fun s => ?_, fun s => ?_, fun s => ?_, fun u c r hc h59 => ?_⟩
  · rcases lgL_cases s with h | ⟨e, he, hp, h⟩
    · rw [h]; exact Nat.zero_le _
    · rw [h]; exact hp.length_le
  · rcases lgL_cases s with h | ⟨e, he, hp, h⟩
    · rw [h]; exact Nat.zero_le _
    · rw [h]
      have h1 := valL_len (codesOf e)
      have h2 := (ent_parts5 he).2.2.2.2.1
      show (valL (codesOf e)).length ≤ _
      omega
  · rcases lgL_cases s with h | ⟨e, he, hp, h⟩
    · rw [h]; simp
    · rw [h]
      show ∀ x ∈ s.take (nameOf e).length, _
      rw [← List.prefix_iff_eq_take.1 hp]
      exact name_al he
  · unfold lgL lgT
    refine fold_same ENT _ fun e he => pre_cut fun x hx => ?_
    rintro rfl
    rcases name_al he x hx with h | h
    · rw [h] at hc; cases hc
    · exact h59 h

/-- The reader of references keeps to what there is. -/
theorem digitsL_le (o : List UInt8) (k : Nat) (r : Int × Nat) (t : List UInt8) (h : r.2 ≤ t.length) : (digitsL o k r t).2 ≤ k + t.length := by
  unfold digitsL
  split
  · show k ≤ _; omega
  · show k + r.2 + _ ≤ _
    split
    · rename_i h59
      rcases Nat.lt_or_ge r.2 t.length with hl | hl
      · omega
      · rw [List.drop_eq_nil_of_le hl] at h59; simp at h59
    · omega
theorem digitsL_len (o : List UInt8) (k : Nat) (r : Int × Nat) (t : List UInt8) (ho : o.length ≤ 3) : (digitsL o k r t).1.length ≤ 4 := by
  unfold digitsL
  split
  · show o.length ≤ _; omega
  · exact encT8_len _
theorem numericL_le (t : List UInt8) : (numericL t).2 ≤ t.length ∧ (numericL t).1.length ≤ 4 := by
  unfold numericL
  cases t with
  | nil => exact ⟨by decide, by decide⟩
  | cons c r =>
    simp only
    split
    · have h := digRun_ge hexB 16 r 0 0
      have h1 := digitsL_le [38, 35, c] 1 (digRun hexB 16 r 0 0) r (by omega)
      exact ⟨by rw [List.length_cons]; omega, digitsL_len _ _ _ _ (by simp)⟩
    · have h := digRun_ge digB 10 (c :: r) 0 0
      have h1 := digitsL_le [38, 35] 0 (digRun digB 10 (c :: r) 0 0) (c :: r) (by omega)
      exact ⟨by omega, digitsL_len _ _ _ _ (by simp)⟩
theorem namedL_le {lg : List UInt8 → Nat × List UInt8} (L : LgOk lg) (attr : Bool) (t : List UInt8) : (namedL lg attr t).2 ≤ t.length ∧ (namedL lg attr t).1.length ≤ 404 + (namedL lg attr t).2 := by
  have h1 := L.le t
  have h2 := L.len t
  unfold namedL
  split
  · exact ⟨Nat.zero_le _, by simp⟩
  · split
    · refine ⟨h1, ?_⟩
      show (38 :: t.take (lg t).1).length ≤ 404 + (lg t).1
      rw [List.length_cons, List.length_take]
      omega
    · exact ⟨h1, by show (lg t).2.length ≤ 404 + (lg t).1; omega⟩
theorem refL_le {lg : List UInt8 → Nat × List UInt8} (L : LgOk lg) (attr : Bool) (t : List UInt8) : (refL lg attr t).2 ≤ t.length ∧ (refL lg attr t).1.length ≤ 404 + (refL lg attr t).2 := by
  unfold refL
  cases t with
  | nil => exact ⟨Nat.le_refl 0, by simp⟩
  | cons c r =>
    simp only
    split
    · exact namedL_le L attr (c :: r)
    · split
      · have := numericL_le r
        exact ⟨by show (numericL r).2 + 1 ≤ _; rw [List.length_cons]; omega, by show (numericL r).1.length ≤ 404 + ((numericL r).2 + 1); omega⟩
      · exact ⟨Nat.zero_le _, by simp⟩
theorem refL_res {lg : List UInt8 → Nat × List UInt8} (L : LgOk lg) (attr : Bool) (l : List UInt8) : (res (refL lg attr) l).length ≤ 404 * l.length :=
  res_len (refL lg attr) 404 (by decide) (fun t => by have := (refL_le L attr t).2; omega) (fun t => (refL_le L attr t).1) _ l (Nat.le_refl _)
end Go.Proofs.YtnfccckodgknjaaGreatDoor

namespace Go.Proofs.YtnfccckodgknjaaGreatDoor
open Go.Lib
set_option maxRecDepth 100000

theorem encT8_encU (r : Int) (h : 0 ≤ r ∧ r ≤ 1114111 ∧ (r ≤ 55295 ∨ 57344 ≤ r)) : encT8 r = encU r := by
  obtain ⟨n, rfl⟩ : ∃ n : Nat, r = n := ⟨r.toNat, by omega⟩
  have hv : Utf8.valid (n : Int) = true := by simp [Utf8.valid]; omega
  unfold encT8 Utf8.encode encU encZ
  simp only [hv, if_true, Int.toNat_natCast]
  by_cases h1 : n < 128
  · rw [if_pos (show n < 0x80 from h1), if_pos (show (n : Int) < 128 by omega)]
    rfl
  · rw [if_neg (show ¬ n < 0x80 from h1), if_neg (show ¬ (n : Int) < 128 by omega)]
    by_cases h2 : n < 2048
    · rw [if_pos (show n < 0x800 from h2), if_pos (show (n : Int) < 2048 by omega)]
      show [_, _] = [UInt8.ofNat (Int.toNat _), UInt8.ofNat (Int.toNat _)]
      rw [show (192 + (n : Int) / 64).toNat = 0xC0 + n / 64 by omega, show (128 + (n : Int) % 64).toNat = 0x80 + n % 64 by omega]
    · rw [if_neg (show ¬ n < 0x800 from h2), if_neg (show ¬ (n : Int) < 2048 by omega)]
      by_cases h3 : n < 65536
      · rw [if_pos (show n < 0x10000 from h3), if_pos (show (n : Int) < 65536 by omega)]
        show [_, _, _] = [UInt8.ofNat (Int.toNat _), UInt8.ofNat (Int.toNat _), UInt8.ofNat (Int.toNat _)]
        rw [show (224 + (n : Int) / 4096).toNat = 0xE0 + n / 4096 by omega, show (128 + (n : Int) / 64 % 64).toNat = 0x80 + n / 64 % 64 by omega, show (128 + (n : Int) % 64).toNat = 0x80 + n % 64 by omega]
      · rw [if_neg (show ¬ n < 0x10000 from h3), if_neg (show ¬ (n : Int) < 65536 by omega)]
        show [_, _, _, _] = [UInt8.ofNat (Int.toNat _), UInt8.ofNat (Int.toNat _), UInt8.ofNat (Int.toNat _), UInt8.ofNat (Int.toNat _)]
        rw [show (240 + (n : Int) / 262144).toNat = 0xF0 + n / 262144 by omega, show (128 + (n : Int) / 4096 % 64).toNat = 0x80 + n / 4096 % 64 by omega, show (128 + (n : Int) / 64 % 64).toNat = 0x80 + n / 64 % 64 by omega, show (128 + (n : Int) % 64).toNat = 0x80 + n % 64 by omega]

/-- The digits t in front of anything take a number from k to n. -/
def Digs (p : Int → Bool) (B : Int) (t : List UInt8) (k n : Int) : Prop := ∀ (r : List UInt8) (j : Nat), digRun p B (t ++ r) (min k 1114112) j = digRun p B r (min n 1114112) (j + t.length)
theorem Digs.nil (p : Int → Bool) (B n : Int) : Digs p B [] n n := fun _ _ => rfl
theorem Digs.cons {p : Int → Bool} {B : Int} {t : List UInt8} {k n : Int} (h : Digs p B t k n) (hk : 0 ≤ k) (hB : B = 10 ∨ B = 16) (d : UInt8) (hp : p d.toNat = true) (hd : dvZ d.toNat = k % B) : Digs p B (d :: t) (k / B) n := by
  intro r j
  have e : min (min (k / B) 1114112 * B + k % B) 1114112 = min k 1114112 := by
    rcases hB with rfl | rfl
    · omega
    · omega
  rw [List.cons_append, digRun, hp, if_pos rfl, hd, e, h r (j + 1), List.length_cons, Nat.add_assoc, Nat.add_comm 1]
/-- How long: z digits of a number of which k is left. -/
def DigZ (z : Nat) (k : Int) : Prop := 0 ≤ k ∧ k.toNat * 2 ^ z ≤ 2 ^ 40
theorem DigZ.start {n : Int} (h0 : 0 ≤ n) (h1 : n ≤ 1099511627776) : DigZ 0 n := ⟨h0, by omega⟩
theorem DigZ.le {z : Nat} {k : Int} (h : DigZ z k) (hk : 0 < k) : z ≤ 40 := by
  have h1 : 1 * 2 ^ z ≤ k.toNat * 2 ^ z := Nat.mul_le_mul_right _ (by omega)
  have h2 : 2 ^ z ≤ 2 ^ 40 := by have := h.2; omega
  exact (Nat.pow_le_pow_iff_right (by decide)).1 h2
theorem DigZ.next {z : Nat} {k : Int} (h : DigZ z k) (B : Int) (hB : B = 10 ∨ B = 16) : DigZ (z + 1) (k / B) := by
  have hk := h.1
  refine ⟨by rcases hB with rfl | rfl <;> omega, ?_⟩
  have e : (k / B).toNat * 2 ≤ k.toNat := by rcases hB with rfl | rfl <;> omega
  have h1 : (k / B).toNat * 2 * 2 ^ z ≤ k.toNat * 2 ^ z := Nat.mul_le_mul_right _ e
  rw [Nat.pow_succ, Nat.mul_comm (2 ^ z) 2, ← Nat.mul_assoc]
  exact Nat.le_trans h1 h.2

theorem num_ten {c : UInt8} (r : List UInt8) (h : hexMark c = false) : numericL (c :: r) = digitsL [38, 35] 0 (digRun digB 10 (c :: r) 0 0) (c :: r) := by
  unfold numericL
  simp only
  rw [h, if_neg (by simp)]
theorem num_hex {c : UInt8} (r : List UInt8) (h : hexMark c = true) : numericL (c :: r) = digitsL [38, 35, c] 1 (digRun hexB 16 r 0 0) r := by
  unfold numericL
  simp only
  rw [h, if_pos rfl]
theorem ref_35 (lg : List UInt8 → Nat × List UInt8) (attr : Bool) (r : List UInt8) : refL lg attr (35 :: r) = ((numericL r).1, (numericL r).2 + 1) := by
  unfold refL
  simp only
  rw [if_neg (by decide), if_pos trivial]
/-- One zero more ahead. -/
theorem Digs.zero {p : Int → Bool} {B : Int} {t : List UInt8} {n : Int} (h : Digs p B t 0 n) (hp : p 48 = true) : Digs p B (48 :: t) 0 n := by
  intro r j
  have h1 := h r (j + 1)
  rw [show min (0 : Int) 1114112 = 0 by decide] at h1 ⊢
  have hp' : p ((48 : UInt8).toNat : Int) = true := hp
  rw [List.cons_append, digRun, hp', if_pos rfl, show dvZ ((48 : UInt8).toNat : Int) = 0 by decide, Int.zero_mul, show min ((0 : Int) + 0) 1114112 = 0 by decide, h1, List.length_cons, Nat.add_assoc, Nat.add_comm 1]
end Go.Proofs.YtnfccckodgknjaaGreatDoor

namespace Go.Proofs.YtnfccckodgknjaaGreatDoor
open Go.RowKit Go.Shelf Go.Lib
set_option maxHeartbeats 4000000
set_option maxRecDepth 100000

def QRefP (T : ByteArray) (k : Nat) (attr : Bool) (w : World) (e : Ending) (w' : World) : Prop :=
  ∃ (V : ByteArray) (N : Nat), e = .returned (.tuple #[.string V, .int .i64 ((k + N : Nat) : Int)]) ∧ V.data.toList = (refL lgL attr T.data.toList).1 ∧ N = (refL lgL attr T.data.toList).2 ∧ N ≤ T.size ∧ Below w.heap.size w w'
theorem take_ext (T : ByteArray) (n : Nat) (h : n ≤ T.size) : (T.extract 0 n).data.toList = T.data.toList.take n := by
  have h1 := ext_take2 T 0 n (Nat.zero_le _) h
  rw [List.drop_zero, Nat.sub_zero] at h1
  rw [h1]; rfl
theorem suf_last (T : ByteArray) (n : Nat) (h0 : 0 < n) (hn : n ≤ T.size) : hasSuffix (T.data.toList.take n) [59] = ((((T[n - 1]'(by omega)).toNat : Int)) == 59) := by
  have hl : (T.data.toList.take n).getLast? = some (T[n - 1]'(by omega)) := by
    rw [List.getLast?_eq_getElem?, List.length_take, size_list, Nat.min_eq_left hn, List.getElem?_take, if_pos (by omega), Array.getElem?_toList]
    exact Array.getElem?_eq_getElem (xs := T.data) (by show n - 1 < T.size; omega)
  obtain ⟨u, hu⟩ := List.getLast?_eq_some_iff.1 hl
  rw [hu]
  unfold hasSuffix
  rw [Bool.eq_iff_iff, List.isSuffixOf_iff_suffix, beq_iff_eq]
  constructor
  · intro h
    obtain ⟨x, hx⟩ := h
    have := congrArg List.getLast? hx
    simp at this
    rw [← this]; rfl
  · intro h
    have : T[n - 1]'(by omega) = 59 := UInt8.toNat_inj.1 (by show (T[n - 1]'(by omega)).toNat = 59; omega)
    rw [this]
    exact List.suffix_append u [59]

theorem qRefWords (s : ByteArray) (k : Nat) (attr : Bool) (hk : k ≤ s.size) (hs : s.size ≤ 1000000) (w : World)
    (T : ByteArray) (hT : T = s.extract k s.size) (h0 : 0 < T.size) (hal : alnB ((T[0]'h0).toNat : Int) = true) (a : Int) (hCa : ∀ W, Calls Tryz.prog 68 #[.string s, .int .i64 a] W fun e w' => e = .returned (.int .i64 (k : Nat)) ∧ w' = W) :
    Calls Tryz.prog 169 #[.string s, .int .i64 a, .bool attr] w (QRefP T k attr w) := by
  have HC := Lib.hid hCa
  have hTe : s.extract k s.size = T := hT.symm
  have hTs : T.size = s.size - k := by rw [hT, ByteArray.size_extract]; omega
  have hkI : (k : Int) ≤ (s.size : Int) := by omega
  have hz2 : (s.size : Int) ≤ 1000000 := by omega
  have hzT : (T.size : Int) ≤ 1000000 := by omega
  have hne : T.toList.isEmpty = false := by
    rw [List.isEmpty_eq_false_iff]
    intro h
    have h2 := congrArg List.length h
    rw [ByteArray.toList_eq, size_list] at h2
    exact absurd h2 (by show ¬ T.size = 0; omega)
  have hcons : T.data.toList = (T[0]'h0) :: T.data.toList.drop 1 := by
    have := drop_byte T 0 h0
    rwa [List.drop_zero] at this
  have hrf : refL lgL attr T.data.toList = namedL lgL attr T.data.toList := by
    rw [hcons]
    show (if alU (T[0]'h0) then _ else _) = _
    rw [if_pos (by unfold alU; exact hal)]
  obtain ⟨n, hn⟩ : ∃ n, n = (lgL T.data.toList).1 := ⟨_, rfl⟩
  obtain ⟨L2, hL2⟩ : ∃ L2, L2 = (lgL T.data.toList).2 := ⟨_, rfl⟩
  have hnle : n ≤ T.size := by
    have := lgOk.le T.data.toList
    rw [size_list] at this
    omega
  have HL := Lib.hid (fun W => rLongest T W)
  rw [← hn, ← hL2] at HL
  have HA := Lib.hid (fun W => rAlnum ((T[0]'h0).toNat : Int) W)
  rw [hal] at HA
  have HR := Lib.hid hrf
  have HN := Lib.hid hn
  have HL2 := Lib.hid hL2
  have hI0 : (0 : Int) < (T.size : Int) := by omega
  clear hCa hT hcons hrf hn hL2 hal hTs
  by_cases hn0 : n = 0
  · subst hn0
    go_enter Tryz.func169, Tryz.ntmps169
    go_wp2_with fail
    refine (HC.out w).mono ?_
    rintro e w1 ⟨rfl, rfl⟩
    go_wp2_with fail
    refine (HA.out w1).mono ?_
    rintro e w2 ⟨rfl, rfl⟩
    go_wp2_with fail
    refine (HL.out w2).mono ?_
    rintro e w3 ⟨V, rfl, _, hb⟩
    go_wp2_with fail
    go_ret2
    refine ⟨bl [38], 0, rfl, ?_, ?_, Nat.zero_le _, hb⟩
    · rw [HR.out]; unfold namedL; rw [if_pos HN.out.symm]; rfl
    · rw [HR.out]; unfold namedL; rw [if_pos HN.out.symm]
  · have hn1 : (n : Int) ≤ (T.size : Int) := by omega
    have hn2 : (1 : Int) ≤ (n : Int) := by omega
    have dn0 : ((n : Int) == 0) = false := by rw [beq_eq_false_iff_ne]; omega
    have hnm : namedL lgL attr T.data.toList = if attr && !(((T[n - 1]'(by omega)).toNat : Int) == 59) && endsRef (T.data.toList.drop n) then (38 :: T.data.toList.take n, n) else (L2, n) := by
      unfold namedL
      rw [if_neg (by rw [← HN.out]; exact hn0), ← HN.out, ← HL2.out, suf_last T n (by omega) hnle]
    have HNM := Lib.hid hnm
    have HTE := Lib.hid (take_ext T n hnle)
    clear hnm hn0
    go_enter Tryz.func169, Tryz.ntmps169
    go_wp2_with fail
    refine (HC.out w).mono ?_
    rintro e w1 ⟨rfl, rfl⟩
    go_wp2_with fail
    refine (HA.out w1).mono ?_
    rintro e w2 ⟨rfl, rfl⟩
    go_wp2_with fail
    refine (HL.out w2).mono ?_
    rintro e w3 ⟨V, rfl, hV, hb⟩
    have HV := Lib.hid hV
    have HB := Lib.hid hb
    clear hV hb
    have fin_v : Hid ((attr && !(((T[n - 1]'(by omega)).toNat : Int) == 59) && endsRef (T.data.toList.drop n)) = false → V.data.toList = (refL lgL attr T.data.toList).1 ∧ n = (refL lgL attr T.data.toList).2) := Lib.hid (fun h => by
      rw [HR.out, HNM.out, h, if_neg (by simp)]
      exact ⟨HV.out, rfl⟩)
    have fin_a : Hid ((attr && !(((T[n - 1]'(by omega)).toNat : Int) == 59) && endsRef (T.data.toList.drop n)) = true → ((⟨#[38]⟩ : ByteArray) ++ T.extract 0 n).data.toList = (refL lgL attr T.data.toList).1 ∧ n = (refL lgL attr T.data.toList).2) := Lib.hid (fun h => by
      rw [HR.out, HNM.out, h, if_pos rfl]
      refine ⟨?_, rfl⟩
      rw [ByteArray.data_append, Array.toList_append, HTE.out]
      simp only [List.cons_append, List.nil_append])
    obtain ⟨K, hK⟩ : ∃ K : Int, K = n := ⟨_, rfl⟩
    have hK1 : K.toNat - 1 = n - 1 := by omega
    have hK2 : K.toNat = n := by omega
    have HKK := Lib.hid hK
    have HNL := Lib.hid hnle
    have HPOS := Lib.hid (show 1 ≤ n by omega)
    rw [← hK] at dn0 hn1 hn2 ⊢
    have hix1 : K.toNat - 1 < T.size := by omega
    obtain ⟨b, hb⟩ : ∃ b, (((T[n - 1]'(by omega)).toNat : Int) == 59) = b := ⟨_, rfl⟩
    rw [hb] at fin_v fin_a
    have hb' : (((T[K.toNat - 1]'hix1).toNat : Int) != 59) = !b := by
      rw [← hb]
      simp only [hK1]
      rfl
    have HTX := Lib.hid (show T.extract 0 K.toNat = T.extract 0 n by rw [hK2])
    have fv : Hid ((attr && !b && endsRef (T.data.toList.drop n)) = false → ∀ e : Ending, e = .returned (.tuple #[.string V, .int .i64 ((k : Int) + K)]) → QRefP T k attr w2 e w3) := Lib.hid (fun h e he => by
      refine ⟨V, n, ?_, (fin_v.out h).1, (fin_v.out h).2, HNL.out, HB.out⟩
      rw [he, HKK.out]
      congr 1)
    have fa : Hid ((attr && !b && endsRef (T.data.toList.drop n)) = true → ∀ e : Ending, e = .returned (.tuple #[.string ((⟨#[38]⟩ : ByteArray) ++ T.extract 0 K.toNat), .int .i64 ((k : Int) + K)]) → QRefP T k attr w2 e w3) := Lib.hid (fun h e he => by
      refine ⟨(⟨#[38]⟩ : ByteArray) ++ T.extract 0 n, n, ?_, (fin_a.out h).1, (fin_a.out h).2, HNL.out, HB.out⟩
      rw [he, HKK.out, ← HKK.out, HTX.out, HKK.out]
      congr 1)
    have hT2 : (T.size : Int) ≤ 1000000 := hzT
    clear hb fin_v fin_a HTE HNM
    cases attr
    · clear hK hnle hK1 hK2
      go_wp2_with fail
      go_ret2
      exact fv.out rfl _ rfl
    · cases b
      · replace hb' : (((T[K.toNat - 1]'hix1).toNat : Int) != 59) = true := hb'
        by_cases hnT : n < T.size
        · have hnI : K < (T.size : Int) := by omega
          have hix2 : K.toNat < T.size := by omega
          have hdr : T.data.toList.drop n = (T[n]'hnT) :: T.data.toList.drop (n + 1) := drop_byte T n hnT
          have her : endsRef (T.data.toList.drop n) = (alnB ((T[n]'hnT).toNat : Int) || (((T[n]'hnT).toNat : Int) == 61)) := by
            rw [hdr]
            show (alU (T[n]'hnT) || ((T[n]'hnT) == 61)) = _
            congr 1
            rw [Bool.eq_iff_iff, beq_iff_eq, beq_iff_eq]
            constructor
            · intro h; rw [h]; rfl
            · intro h; exact UInt8.toNat_inj.1 (by show (T[n]'hnT).toNat = 61; omega)
          rw [her] at fv fa
          have hAn := fun W => rAlnum ((T[K.toNat]'hix2).toNat : Int) W
          obtain ⟨d, hd⟩ : ∃ d, (((T[n]'hnT).toNat : Int) == 61) = d := ⟨_, rfl⟩
          rw [hd] at fv fa
          have hd' : (((T[K.toNat]'hix2).toNat : Int) == 61) = d := by simp only [hK2]; exact hd
          obtain ⟨y, hy⟩ : ∃ y, alnB ((T[n]'hnT).toNat : Int) = y := ⟨_, rfl⟩
          rw [hy] at fv fa
          have hy' : alnB ((T[K.toNat]'hix2).toNat : Int) = y := by simp only [hK2]; exact hy
          have HAn := Lib.hid (fun W => (hy' ▸ hAn W : Calls Tryz.prog 209 #[.int .u8 ((T[K.toNat]'hix2).toNat : Int)] W fun e w' => e = .returned (.bool y) ∧ w' = W))
          have dlt : decide (K < (T.size : Int)) = true := decide_eq_true hnI
          clear hdr her hy hy' hAn hd hK hnle hK1 hK2 hnT
          cases d
          · cases y
            · go_wp2_with fail
              refine (HAn.out w3).mono ?_
              rintro e w4 ⟨rfl, rfl⟩
              go_wp2_with fail
              go_ret2
              exact fv.out rfl _ rfl
            · go_wp2_with fail
              refine (HAn.out w3).mono ?_
              rintro e w4 ⟨rfl, rfl⟩
              go_wp2_with fail
              go_ret2
              exact fa.out rfl _ rfl
          · go_wp2_with fail
            go_ret2
            exact fa.out (by cases y <;> rfl) _ rfl
        · have dlt : decide (K < (T.size : Int)) = false := decide_eq_false (by omega)
          rw [drop_end T n (by omega)] at fv fa
          clear hK hnle hK1 hK2 hnT
          go_wp2_with fail
          go_ret2
          exact fv.out rfl _ rfl
      · replace hb' : (((T[K.toNat - 1]'hix1).toNat : Int) != 59) = false := hb'
        clear hK hnle hK1 hK2
        go_wp2_with fail
        go_ret2
        exact fv.out rfl _ rfl
end Go.Proofs.YtnfccckodgknjaaGreatDoor

namespace Go.Proofs.YtnfccckodgknjaaGreatDoor
open Go.Lib
set_option maxRecDepth 100000

theorem refL_al (lg : List UInt8 → Nat × List UInt8) (attr : Bool) {c : UInt8} (r : List UInt8) (h : alU c = true) : refL lg attr (c :: r) = namedL lg attr (c :: r) := by
  unfold refL
  simp only
  rw [if_pos h]
theorem refL_35 (lg : List UInt8 → Nat × List UInt8) (attr : Bool) (r : List UInt8) : refL lg attr (35 :: r) = ((numericL r).1, (numericL r).2 + 1) := by
  unfold refL
  simp only
  rw [if_neg (by decide), if_pos trivial]
theorem ref_notF_of (lg : List UInt8 → Nat × List UInt8) (h : lg sNotit = (3, [194, 172])) : refL lg false sNotit = ([194, 172], 3) := by
  have e : refL lg false sNotit = namedL lg false sNotit := refL_al lg false _ (by decide)
  rw [e]
  unfold namedL
  rw [h]
  rfl
theorem ref_notT_of (lg : List UInt8 → Nat × List UInt8) (h : lg sNotit = (3, [194, 172])) : refL lg true sNotit = ([38, 110, 111, 116], 3) := by
  have e : refL lg true sNotit = namedL lg true sNotit := refL_al lg true _ (by decide)
  rw [e]
  unfold namedL
  rw [h]
  decide +kernel
theorem ref_ltb_of (lg : List UInt8 → Nat × List UInt8) (h : lg sLtb = (3, [60])) : refL lg false sLtb = ([60], 3) := by
  have e : refL lg false sLtb = namedL lg false sLtb := refL_al lg false _ (by decide)
  rw [e]
  unfold namedL
  rw [h]
  rfl
theorem ref_notF : refL lgL false sNotit = ([194, 172], 3) := ref_notF_of lgL two_p.1
theorem ref_notT : refL lgL true sNotit = ([38, 110, 111, 116], 3) := ref_notT_of lgL two_p.1
theorem ref_ltb : refL lgL false sLtb = ([60], 3) := ref_ltb_of lgL two_p.2
theorem ref_xg (lg : List UInt8 → Nat × List UInt8) : refL lg false [35, 120, 103] = ([38, 35, 120], 2) := by
  have h : numericL [120, 103] = ([38, 35, 120], 1) := by decide +kernel
  rw [refL_35, h]
theorem ref_x80 (lg : List UInt8 → Nat × List UInt8) : refL lg true [35, 120, 56, 48] = ([226, 130, 172], 4) := by
  have h : numericL [120, 56, 48] = ([226, 130, 172], 3) := by decide +kernel
  rw [refL_35, h]
theorem res_ltb (R : RefF) (h : R sLtb = ([60], 3)) : res R (97 :: 38 :: sLtb) = [97, 60, 60, 47, 98, 62] := by
  show nul1 97 ++ ((R sLtb).1 ++ resF R 7 (sLtb.drop (R sLtb).2)) = _
  rw [h]
  rfl
theorem com_k1 : comL [97, 45, 45, 98, 45, 45, 62, 99] = ([97, 45, 45, 98], 7) := by decide +kernel
theorem com_k2 : comL [45, 62, 97] = ([], 2) := by decide +kernel
theorem tag_k (R : RefF) : atL R [47, 32, 62, 120] = some ([], false, [120]) := rfl
theorem clo_k1 : closesL [104, 49] [60, 47, 104, 49, 62] = false := by decide +kernel
theorem clo_k2 : closesL [116, 105, 116, 108, 101] [60, 47, 84, 105, 116, 108, 101, 47] = true := by decide +kernel
theorem doc_k : (docL [32, 97, 32, 83, 89, 83, 84, 69, 77, 39, 121, 39, 32, 122, 62]).1.name = [97] ∧ (docL [32, 97, 32, 83, 89, 83, 84, 69, 77, 39, 121, 39, 32, 122, 62]).1.hasPub = false ∧ (docL [32, 97, 32, 83, 89, 83, 84, 69, 77, 39, 121, 39, 32, 122, 62]).1.sys = [121] ∧ (docL [32, 97, 32, 83, 89, 83, 84, 69, 77, 39, 121, 39, 32, 122, 62]).1.hasSys = true ∧ (docL [32, 97, 32, 83, 89, 83, 84, 69, 77, 39, 121, 39, 32, 122, 62]).1.quirks = false ∧ (docL [32, 97, 32, 83, 89, 83, 84, 69, 77, 39, 121, 39, 32, 122, 62]).2 = [] := by decide +kernel
theorem scr_k : scL [115, 99, 114, 105, 112, 116] 0 0 [60, 33, 45, 45, 60, 115, 99, 114, 105, 112, 116, 62, 60, 47, 115, 99, 114, 105, 112, 116, 62, 60, 47, 115, 99, 114, 105, 112, 116, 62] = [60, 47, 115, 99, 114, 105, 112, 116, 62] := by decide +kernel
theorem stop_k : stopL [97] [97, 38, 108, 116, 59, 60, 47, 98, 62, 60, 47, 97, 62] = [60, 47, 97, 62] := by decide +kernel
end Go.Proofs.YtnfccckodgknjaaGreatDoor

namespace Go.Proofs.YtnfccckodgknjaaGreatDoor
open Go.Lib
set_option maxRecDepth 100000

def stopC (c : UInt8) : Bool := !alU c && c != 59 && c != 61 && c != 35
theorem digB_al (c : UInt8) (h : alU c = false) : digB c.toNat = false := by
  rw [Bool.eq_false_iff] at h ⊢
  intro h2
  apply h
  unfold alU
  simp [alnB, letB, digB] at h2 ⊢
  omega
theorem hexB_al (c : UInt8) (h : alU c = false) : hexB c.toNat = false := by
  rw [Bool.eq_false_iff] at h ⊢
  intro h2
  apply h
  unfold alU
  simp [alnB, letB, digB, hexB] at h2 ⊢
  omega
theorem hexMark_al (c : UInt8) (h : alU c = false) : hexMark c = false := by
  rw [Bool.eq_false_iff] at h ⊢
  intro h2
  apply h
  unfold hexMark at h2
  rw [Bool.or_eq_true, beq_iff_eq, beq_iff_eq] at h2
  rcases h2 with rfl | rfl <;> decide
theorem digRun_cut (p : Int → Bool) (B : Int) (c : UInt8) (r : List UInt8) (hp : p c.toNat = false) : ∀ (v : List UInt8) (x : Int) (k : Nat), digRun p B (v ++ c :: r) x k = digRun p B v x k
  | [], x, k => by
    show digRun p B (c :: r) x k = (x, k)
    rw [digRun, hp, if_neg (by simp)]
  | b :: v, x, k => by
    rw [List.cons_append, digRun, digRun]
    split
    · exact digRun_cut p B c r hp v _ _
    · rfl
theorem head_cut (c : UInt8) (r v : List UInt8) (n : Nat) (hn : n ≤ v.length) (hc : c ≠ 59) : ((v ++ c :: r).drop n).head? = some 59 ↔ (v.drop n).head? = some 59 := by
  rw [List.drop_append_of_le_length hn]
  cases hv : v.drop n with
  | nil => simp [hc]
  | cons d u => simp
theorem digitsL_cut (o : List UInt8) (k : Nat) (d : Int × Nat) (c : UInt8) (r v : List UInt8) (hd : d.2 ≤ v.length) (hc : c ≠ 59) : digitsL o k d (v ++ c :: r) = digitsL o k d v := by
  unfold digitsL
  by_cases h : d.2 = 0
  · rw [if_pos h, if_pos h]
  · rw [if_neg h, if_neg h]
    by_cases h2 : (v.drop d.2).head? = some 59
    · rw [if_pos h2, if_pos ((head_cut c r v d.2 hd hc).2 h2)]
    · rw [if_neg h2, if_neg (fun h3 => h2 ((head_cut c r v d.2 hd hc).1 h3))]
theorem numericL_cut (c : UInt8) (r : List UInt8) (hc : stopC c = true) : ∀ v : List UInt8, numericL (v ++ c :: r) = numericL v := by
  unfold stopC at hc
  simp only [Bool.and_eq_true, Bool.not_eq_true', bne_iff_ne] at hc
  obtain ⟨⟨⟨hal, h59⟩, h61⟩, h35⟩ := hc
  intro v
  cases v with
  | nil =>
    show numericL (c :: r) = _
    unfold numericL
    simp only
    have e : digRun digB 10 (c :: r) 0 0 = (0, 0) := by rw [digRun, digB_al c hal, if_neg (by simp)]
    rw [hexMark_al c hal, if_neg (by simp), e]
    rfl
  | cons b v =>
    rw [List.cons_append]
    unfold numericL
    simp only
    have e1 : digRun hexB 16 (v ++ c :: r) 0 0 = digRun hexB 16 v 0 0 := digRun_cut _ _ _ _ (hexB_al c hal) _ _ _
    have e2 : digRun digB 10 (b :: (v ++ c :: r)) 0 0 = digRun digB 10 (b :: v) 0 0 := digRun_cut digB 10 c r (digB_al c hal) (b :: v) 0 0
    have l1 := (digRun_ge hexB 16 v 0 0).2
    have l2 := (digRun_ge digB 10 (b :: v) 0 0).2
    rw [e1, e2, digitsL_cut _ _ _ c r v (by omega) h59]
    have e3 : digitsL [38, 35] 0 (digRun digB 10 (b :: v) 0 0) (b :: (v ++ c :: r)) = digitsL [38, 35] 0 (digRun digB 10 (b :: v) 0 0) (b :: v) := digitsL_cut _ _ _ c r (b :: v) (by omega) h59
    rw [e3]
theorem namedL_cut {lg : List UInt8 → Nat × List UInt8} (L : LgOk lg) (attr : Bool) (c : UInt8) (r u : List UInt8) (hc : stopC c = true) : namedL lg attr (u ++ c :: r) = namedL lg attr u := by
  unfold stopC at hc
  simp only [Bool.and_eq_true, Bool.not_eq_true', bne_iff_ne] at hc
  obtain ⟨⟨⟨hal, h59⟩, h61⟩, h35⟩ := hc
  have hl := L.le u
  unfold namedL
  rw [L.cut u c r hal h59, List.take_append_of_le_length hl, List.drop_append_of_le_length hl]
  have he : endsRef (u.drop (lg u).1 ++ c :: r) = endsRef (u.drop (lg u).1) := by
    cases hv : u.drop (lg u).1 with
    | nil =>
      show (alU c || c == 61) = false
      rw [hal, Bool.false_or, beq_eq_false_iff_ne]
      exact h61
    | cons d v => rfl
  rw [he]
theorem refL_ok {lg : List UInt8 → Nat × List UInt8} (L : LgOk lg) (attr : Bool) : RefOk (refL lg attr) stopC := by
  refine ⟨fun t => (refL_le L attr t).1, fun u c r hc => ?_⟩
  have hc0 := hc
  unfold stopC at hc
  simp only [Bool.and_eq_true, Bool.not_eq_true', bne_iff_ne] at hc
  obtain ⟨⟨⟨hal, h59⟩, h61⟩, h35⟩ := hc
  cases u with
  | nil =>
    show refL lg attr (c :: r) = _
    unfold refL
    simp only
    rw [hal, if_neg (by simp), if_neg h35]
  | cons a u =>
    have hn := namedL_cut L attr c r (a :: u) hc0
    rw [List.cons_append] at hn ⊢
    unfold refL
    simp only
    rw [hn, numericL_cut c r hc0 u]
theorem RefOk.mono {R : RefF} {p q : UInt8 → Bool} (h : RefOk R q) (hpq : ∀ c, p c = true → q c = true) : RefOk R p := ⟨h.le, fun u c r hc => h.cut u c r (hpq c hc)⟩
end Go.Proofs.YtnfccckodgknjaaGreatDoor

namespace Go.Proofs.YtnfccckodgknjaaGreatDoor
open Go.Lib
set_option maxRecDepth 100000

end Go.Proofs.YtnfccckodgknjaaGreatDoor

namespace Go.Proofs.YtnfccckodgknjaaGreatDoor
open Go.Lib
set_option maxRecDepth 100000

end Go.Proofs.YtnfccckodgknjaaGreatDoor

namespace Go.Proofs.YtnfccckodgknjaaGreatDoor
open Go.Lib
set_option maxRecDepth 100000

end Go.Proofs.YtnfccckodgknjaaGreatDoor
