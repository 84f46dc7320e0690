/-
  A string with its references replaced, as lists of bytes; R: what reads one reference. No program in sight.
  Document type declarations, script data and end tags of raw text, as lists of bytes. No program in sight.
  Values and attributes, as lists of bytes; R: what reads one reference in an attribute. No program in sight.
  Attributes, step by step. No program in sight.
  Script data, step by step. No program in sight.
  The end tag of raw text, in the document's words. No program in sight.
-/
import Derived.Test.YtnfccckodgknjaaGreatDoorY02
import Derived.Test.YtnfccckodgknjaaGreatDoorY26
import Derived.Test.YtnfccckodgknjaaGreatDoorY04
namespace Go.Proofs.YtnfccckodgknjaaGreatDoor
open Go.Lib

abbrev RefF := List UInt8 → List UInt8 × Nat
def resF (R : RefF) : Nat → List UInt8 → List UInt8
  | 0, _ => []
  | _ + 1, [] => []
  | n + 1, b :: t => if b = 38 then (R t).1 ++ resF R n (t.drop (R t).2) else nul1 b ++ resF R n t
def res (R : RefF) (l : List UInt8) : List UInt8 := resF R l.length l
theorem resF_more (R : RefF) : ∀ (n m : Nat) (l : List UInt8), l.length ≤ n → l.length ≤ m → resF R n l = resF R m l
  | 0, m, l, h, _ => by
    have : l = [] := List.length_eq_zero_iff.1 (by omega)
    subst this
    cases m <;> rfl
  | n + 1, 0, l, _, h => by
    have : l = [] := List.length_eq_zero_iff.1 (by omega)
    subst this
    rfl
  | n + 1, m + 1, [], _, _ => rfl
  | n + 1, m + 1, b :: t, h1, h2 => by
    simp only [List.length_cons] at h1 h2
    unfold resF
    rw [resF_more R n m (t.drop (R t).2) (by simp; omega) (by simp; omega), resF_more R n m t (by omega) (by omega)]
theorem res_nil (R : RefF) : res R [] = [] := rfl
theorem res_b (R : RefF) (b : UInt8) (t : List UInt8) (h : b ≠ 38) : res R (b :: t) = nul1 b ++ res R t := by
  unfold res
  rw [List.length_cons, resF, if_neg h]
theorem res_amp (R : RefF) (t : List UInt8) : res R (38 :: t) = (R t).1 ++ res R (t.drop (R t).2) := by
  unfold res
  rw [List.length_cons, resF, if_pos rfl, resF_more R t.length (t.drop (R t).2).length _ (by simp) (Nat.le_refl _)]
theorem res_run (R : RefF) (r : List UInt8) : ∀ u : List UInt8, (∀ x ∈ u, x ≠ 38) → res R (u ++ r) = nulL u ++ res R r
  | [], _ => by simp [nulL_nil]
  | b :: t, h => by
    rw [List.cons_append, res_b R b _ (h b (by simp)), res_run R r t fun x hx => h x (by simp [hx]), nulL_cons, List.append_assoc]
theorem res_plain (R : RefF) (u : List UInt8) (h : ∀ x ∈ u, x ≠ 38) : res R u = nulL u := by
  have := res_run R [] u h
  simpa [res_nil] using this

/-- What a reader of references keeps to: it consumes no more than there is, and a byte that stops it ends all. -/
structure RefOk (R : RefF) (stopsAt : UInt8 → Bool) : Prop where
  le : ∀ t, (R t).2 ≤ t.length
  cut : ∀ u c r, stopsAt c = true → R (u ++ c :: r) = R u

theorem nul1_len (b : UInt8) : (nul1 b).length ≤ 3 := by unfold nul1; split <;> simp
theorem res_len (R : RefF) (K : Nat) (hK : 3 ≤ K) (hR : ∀ t, (R t).1.length ≤ K * ((R t).2 + 1)) (hle : ∀ t, (R t).2 ≤ t.length) : ∀ (n : Nat) (l : List UInt8), l.length ≤ n → (res R l).length ≤ K * l.length
  | _, [], _ => by simp [res_nil]
  | 0, b :: t, h => by simp at h
  | n + 1, b :: t, h => by
    simp only [List.length_cons] at h ⊢
    by_cases hb : b = 38
    · subst hb
      have ih := res_len R K hK hR hle n (t.drop (R t).2) (by simp; omega)
      have h1 := hR t
      have h2 := hle t
      rw [res_amp, List.length_append]
      rw [List.length_drop] at ih
      have e : K * (t.length + 1) = K * ((R t).2 + 1) + K * (t.length - (R t).2) := by rw [← Nat.mul_add]; congr 1; omega
      omega
    · have ih := res_len R K hK hR hle n t (by omega)
      have := nul1_len b
      rw [res_b R b t hb, List.length_append, Nat.mul_add, Nat.mul_one]
      omega
end Go.Proofs.YtnfccckodgknjaaGreatDoor

namespace Go.Proofs.YtnfccckodgknjaaGreatDoor
open Go.Lib

def lowB (b : UInt8) : UInt8 := if 65 ≤ b ∧ b ≤ 90 then b + 32 else b
def lowL (l : List UInt8) : List UInt8 := l.map lowB
def spU (b : UInt8) : Bool := spB b.toNat
def leU (b : UInt8) : Bool := letB b.toNat
/-- What ends a value without quotes; what ends a tag's name. -/
def ewU (b : UInt8) : Bool := spU b || b == 62
def enU (b : UInt8) : Bool := spU b || b == 62 || b == 47
def sk (t : List UInt8) : List UInt8 := t.drop (runN (fun b => !spU b) t)
def upTo62 (t : List UInt8) : List UInt8 := (t.drop (runN (fun b => b == 62) t)).drop 1

structure DocT where
  name : List UInt8 := []
  hasName : Bool := false
  pub : List UInt8 := []
  hasPub : Bool := false
  sys : List UInt8 := []
  hasSys : Bool := false
  quirks : Bool := false

def DocT.q (T : DocT) : DocT := { T with quirks := true }
def quU (b : UInt8) : Bool := b == 34 || b == 39
def kBogus (T : DocT) (t : List UInt8) : DocT × List UInt8 := (T, upTo62 t)
def kAfterSystem (T : DocT) (t : List UInt8) : DocT × List UInt8 := if sk t = [] then (T.q, []) else kBogus T (sk t)
def idN (q : UInt8) (t : List UInt8) : Nat := runN (fun b => b == 62 || b == q) t
def kInSystem (q : UInt8) (T : DocT) (t : List UInt8) : DocT × List UInt8 :=
  match t.drop (idN q t) with
  | [] => ({ T with sys := nulL (t.take (idN q t)), quirks := true }, [])
  | c :: r => if c = q then kAfterSystem { T with sys := nulL (t.take (idN q t)) } r else ({ T with sys := nulL (t.take (idN q t)), quirks := true }, r)
/-- Before a system identifier; g: whether a ">" is too early here. -/
def kBeforeSystem (g : Bool) (T : DocT) (t : List UInt8) : DocT × List UInt8 :=
  match sk t with
  | [] => (T.q, [])
  | c :: r => if c = 62 then ({ T with quirks := T.quirks || g }, r) else if quU c then kInSystem c { T with hasSys := true } r else kBogus T.q (c :: r)
def kInPublic (q : UInt8) (T : DocT) (t : List UInt8) : DocT × List UInt8 :=
  match t.drop (idN q t) with
  | [] => ({ T with pub := nulL (t.take (idN q t)), quirks := true }, [])
  | c :: r => if c = q then kBeforeSystem false { T with pub := nulL (t.take (idN q t)) } r else ({ T with pub := nulL (t.take (idN q t)), quirks := true }, r)
def kBeforePublic (T : DocT) (t : List UInt8) : DocT × List UInt8 :=
  match sk t with
  | [] => (T.q, [])
  | c :: r => if c = 62 then (T.q, r) else if quU c then kInPublic c { T with hasPub := true } r else kBogus T.q (c :: r)
def sPublic : List UInt8 := [112, 117, 98, 108, 105, 99]
def sSystem : List UInt8 := [115, 121, 115, 116, 101, 109]
def kAfterName (T : DocT) (t : List UInt8) : DocT × List UInt8 :=
  match sk t with
  | [] => (T.q, [])
  | c :: r => if c = 62 then (T, r) else if lowL ((c :: r).take 6) = sPublic then kBeforePublic T ((c :: r).drop 6) else if lowL ((c :: r).take 6) = sSystem then kBeforeSystem true T ((c :: r).drop 6) else kBogus T.q (c :: r)
def kInName (T : DocT) (t : List UInt8) : DocT × List UInt8 := kAfterName { T with name := lowL (nulL (t.take (runN ewU t))), hasName := true } (t.drop (runN ewU t))
def kBeforeName (T : DocT) (t : List UInt8) : DocT × List UInt8 :=
  match sk t with
  | [] => (T.q, [])
  | c :: r => if c = 62 then (T.q, r) else kInName T (c :: r)
/-- A declaration behind its keyword. -/
def docL (t : List UInt8) : DocT × List UInt8 := kBeforeName {} t

/-- Whether an end tag for last begins here. -/
def closesL (last t : List UInt8) : Bool :=
  !last.isEmpty && [60, 47].isPrefixOf t && (((t.drop 2).take (runN (fun b => !leU b) (t.drop 2))).length == last.length) && (lowL ((t.drop 2).take (runN (fun b => !leU b) (t.drop 2))) == last) &&
    (match (t.drop 2).drop (runN (fun b => !leU b) (t.drop 2)) with | [] => false | c :: _ => enU c)
/-- What is left where the first end tag for last begins. -/
def stopL (last : List UInt8) : List UInt8 → List UInt8
  | [] => []
  | b :: t => if closesL last (b :: t) then b :: t else stopL last t

theorem closesL_lt {last : List UInt8} {b : UInt8} {t : List UInt8} (h : closesL last (b :: t) = true) : b = 60 := by
  simp only [closesL, Bool.and_eq_true] at h
  have := h.1.1.1.2
  simp [List.isPrefixOf] at this
  exact this.1.symm
theorem stopL_run (last : List UInt8) : ∀ (n : Nat) (t : List UInt8), (∀ x ∈ t.take n, x ≠ 60) → stopL last t = stopL last (t.drop n)
  | 0, t, _ => by simp
  | n + 1, [], _ => by simp
  | n + 1, b :: t, h => by
    have hb : b ≠ 60 := h b (by simp)
    have hc : closesL last (b :: t) = false := by
      rw [Bool.eq_false_iff]
      intro e
      exact hb (closesL_lt e)
    rw [stopL, hc, if_neg (by simp), List.drop_succ_cons]
    exact stopL_run last n t fun x hx => h x (by simp [hx])

/-- Script data: mode 0 (plain), 1 (escaped), 2 (double escaped); d: hyphens directly before, at most 2. -/
def sScript : List UInt8 := [115, 99, 114, 105, 112, 116]
def wordN (t : List UInt8) : Nat := runN (fun b => !leU b) t
def scF (last : List UInt8) : Nat → Nat → Nat → List UInt8 → List UInt8
  | 0, _, _, t => t
  | _ + 1, _, _, [] => []
  | n + 1, m, d, b :: t =>
    if m < 2 ∧ closesL last (b :: t) = true then b :: t
    else if m = 0 then (if [60, 33, 45, 45].isPrefixOf (b :: t) then scF last n 1 2 (t.drop 3) else scF last n 0 0 t)
    else if b = 45 then scF last n m (min (d + 1) 2) t
    else if b = 62 ∧ d = 2 then scF last n 0 0 t
    else if b = 60 ∧ (if m = 1 then 0 < wordN t else t.head? = some 47) then
      (match (t.drop (m - 1)).drop (wordN (t.drop (m - 1))) with
        | [] => []
        | c :: r => if enU c then scF last n (if lowL ((t.drop (m - 1)).take (wordN (t.drop (m - 1)))) = sScript then 3 - m else m) 0 r else scF last n m 0 (c :: r))
    else scF last n m 0 t
def scL (last : List UInt8) (m d : Nat) (t : List UInt8) : List UInt8 := scF last (t.length + 1) m d t
end Go.Proofs.YtnfccckodgknjaaGreatDoor

namespace Go.Proofs.YtnfccckodgknjaaGreatDoor
open Go.Lib

/-- The value of an attribute, behind its "=": it, and what follows; none: it is not complete. -/
def vaL (R : RefF) (t : List UInt8) : Option (List UInt8 × List UInt8) :=
  match sk t with
  | [] => none
  | c :: r => if quU c then (if runN (fun b => b == c) r < r.length then some (res R (r.take (runN (fun b => b == c) r)), r.drop (runN (fun b => b == c) r + 1)) else none)
    else (if runN ewU (c :: r) < (c :: r).length then some (res R ((c :: r).take (runN ewU (c :: r))), (c :: r).drop (runN ewU (c :: r))) else none)

abbrev AttL := List (List UInt8 × List UInt8)
def knownL (l : AttL) (n : List UInt8) : Bool := l.any fun a => a.1 == n
def addL (l : AttL) (n v : List UInt8) : AttL := if knownL l n then l else l ++ [(n, v)]
def eqU (b : UInt8) : Bool := enU b || b == 61
/-- The name of the attribute that begins with b, and what follows it and its spaces. -/
def atName (b : UInt8) (r : List UInt8) : List UInt8 := lowL (nulL (b :: r.take (runN eqU r)))
def atRest (r : List UInt8) : List UInt8 := sk (r.drop (runN eqU r))
def atF (R : RefF) : Nat → AttL → List UInt8 → Option (AttL × Bool × List UInt8)
  | 0, _, _ => none
  | n + 1, acc, t =>
    match sk t with
    | [] => none
    | b :: r =>
      if b = 62 then some (acc, false, r)
      else if b = 47 then (if r.head? = some 62 then some (acc, true, r.drop 1) else atF R n acc r)
      else if (atRest r).head? = some 61 then (match vaL R ((atRest r).drop 1) with | none => none | some p => atF R n (addL acc (atName b r) p.1) p.2)
      else atF R n (addL acc (atName b r) []) (atRest r)
def atL (R : RefF) (t : List UInt8) : Option (AttL × Bool × List UInt8) := atF R (t.length + 1) [] t

theorem sk_len (t : List UInt8) : (sk t).length ≤ t.length := by unfold sk; simp
theorem vaL_len {R : RefF} {t : List UInt8} {v x : List UInt8} (h : vaL R t = some (v, x)) : x.length ≤ t.length := by
  unfold vaL at h
  have hs := sk_len t
  generalize sk t = u at h hs
  cases u with
  | nil => simp at h
  | cons c r =>
    simp only at h
    split at h
    · split at h
      · simp only [Option.some.injEq, Prod.mk.injEq] at h
        rw [← h.2, List.length_drop]
        simp at hs
        omega
      · simp at h
    · split at h
      · simp only [Option.some.injEq, Prod.mk.injEq] at h
        rw [← h.2, List.length_drop]
        omega
      · simp at h
theorem atRest_len (r : List UInt8) : (atRest r).length ≤ r.length := by
  unfold atRest
  have := sk_len (r.drop (runN eqU r))
  rw [List.length_drop] at this
  omega
end Go.Proofs.YtnfccckodgknjaaGreatDoor

namespace Go.Proofs.YtnfccckodgknjaaGreatDoor
open Go.Lib

theorem atF_fuel (R : RefF) : ∀ (n m : Nat) (acc : AttL) (t : List UInt8), t.length < n → t.length < m → atF R n acc t = atF R m acc t
  | 0, _, _, _, h, _ => absurd h (by omega)
  | _ + 1, 0, _, _, _, h => absurd h (by omega)
  | n + 1, m + 1, acc, t, h1, h2 => by
    have hsk := sk_len t
    unfold atF
    cases hs : sk t with
    | nil => rfl
    | cons b r =>
      rw [hs, List.length_cons] at hsk
      simp only
      have hr := atRest_len r
      rw [atF_fuel R n m acc r (by omega) (by omega), atF_fuel R n m _ (atRest r) (by omega) (by omega)]
      cases hv : vaL R ((atRest r).drop 1) with
      | none => rfl
      | some p =>
        have hp := vaL_len (show vaL R ((atRest r).drop 1) = some (p.1, p.2) from hv)
        rw [List.length_drop] at hp
        simp only
        rw [atF_fuel R n m _ p.2 (by omega) (by omega)]
def atG (R : RefF) (acc : AttL) (t : List UInt8) : Option (AttL × Bool × List UInt8) := atF R (t.length + 1) acc t
theorem atG_step (R : RefF) (acc : AttL) (t : List UInt8) : atG R acc t =
    match sk t with
    | [] => none
    | b :: r =>
      if b = 62 then some (acc, false, r)
      else if b = 47 then (if r.head? = some 62 then some (acc, true, r.drop 1) else atG R acc r)
      else if (atRest r).head? = some 61 then (match vaL R ((atRest r).drop 1) with | none => none | some p => atG R (addL acc (atName b r) p.1) p.2)
      else atG R (addL acc (atName b r) []) (atRest r) := by
  have hsk := sk_len t
  unfold atG
  conv => lhs; unfold atF
  cases hs : sk t with
  | nil => rfl
  | cons b r =>
    rw [hs, List.length_cons] at hsk
    simp only
    have hr := atRest_len r
    rw [atF_fuel R t.length (r.length + 1) acc r (by omega) (by omega), atF_fuel R t.length ((atRest r).length + 1) _ (atRest r) (by omega) (by omega)]
    cases hv : vaL R ((atRest r).drop 1) with
    | none => rfl
    | some p =>
      have hp := vaL_len (show vaL R ((atRest r).drop 1) = some (p.1, p.2) from hv)
      rw [List.length_drop] at hp
      simp only
      rw [atF_fuel R t.length (p.2.length + 1) _ p.2 (by omega) (by omega)]
theorem knownL_add (acc : AttL) (n v : List UInt8) (_h : knownL acc n = false) : knownL (acc ++ [(n, v)]) = fun l => l == n || knownL acc l := by
  funext l
  simp only [knownL, List.any_append, List.any_cons, List.any_nil, Bool.or_false]
  rw [Bool.or_comm]
  congr 1
  rw [Bool.eq_iff_iff, beq_iff_eq, beq_iff_eq]
  exact ⟨fun h => h.symm, fun h => h.symm⟩
theorem addL_yes {acc : AttL} {n : List UInt8} (v : List UInt8) (h : knownL acc n = true) : addL acc n v = acc := by unfold addL; rw [if_pos h]
theorem addL_no {acc : AttL} {n : List UInt8} (v : List UInt8) (h : knownL acc n = false) : addL acc n v = acc ++ [(n, v)] := by unfold addL; rw [h, if_neg Bool.false_ne_true]
end Go.Proofs.YtnfccckodgknjaaGreatDoor

namespace Go.Proofs.YtnfccckodgknjaaGreatDoor
open Go.Lib

/-- Behind a "<" and a word, or a "</" and a word. -/
def scW (last : List UInt8) (m : Nat) (t : List UInt8) : List UInt8 :=
  match t.drop (wordN t) with
  | [] => []
  | c :: r => if enU c then scL last (if lowL (t.take (wordN t)) = sScript then 3 - m else m) 0 r else scL last m 0 (c :: r)

theorem scF_more (last : List UInt8) : ∀ (n k m d : Nat) (t : List UInt8), t.length < n → t.length < k → scF last n m d t = scF last k m d t
  | 0, k, m, d, t, h, _ => absurd h (by omega)
  | n + 1, 0, m, d, t, _, h => absurd h (by omega)
  | n + 1, k + 1, m, d, [], _, _ => rfl
  | n + 1, k + 1, m, d, b :: t, h1, h2 => by
    simp only [List.length_cons] at h1 h2
    unfold scF
    have e1 : ∀ m d j, scF last n m d (t.drop j) = scF last k m d (t.drop j) := fun m d j => scF_more last n k m d _ (by rw [List.length_drop]; omega) (by rw [List.length_drop]; omega)
    have e0 : ∀ m d, scF last n m d t = scF last k m d t := fun m d => scF_more last n k m d _ (by omega) (by omega)
    have e2 : ∀ (u : List UInt8) (r : List UInt8) m d, u.length ≤ t.length → r.length ≤ u.length → scF last n m d r = scF last k m d r := fun u r m d h h' => scF_more last n k m d _ (by omega) (by omega)
    simp only [e1, e0]
    have hu : ((t.drop (m - 1)).drop (wordN (t.drop (m - 1)))).length ≤ t.length := by rw [List.length_drop, List.length_drop]; omega
    generalize (t.drop (m - 1)).drop (wordN (t.drop (m - 1))) = u at hu
    cases u with
    | nil => rfl
    | cons c r =>
      simp only [List.length_cons] at hu
      simp only
      rw [e2 (c :: r) r _ _ (by simp; omega) (by simp), e2 (c :: r) (c :: r) _ _ (by simp; omega) (Nat.le_refl _)]
theorem scL_eq (last : List UInt8) (n m d : Nat) (t : List UInt8) (h : t.length < n) : scF last n m d t = scL last m d t := scF_more last n _ m d t h (by omega)
theorem scL_nil (last : List UInt8) (m d : Nat) : scL last m d [] = [] := rfl
theorem scL_cons (last : List UInt8) (m d : Nat) (b : UInt8) (t : List UInt8) : scL last m d (b :: t) =
    if m < 2 ∧ closesL last (b :: t) = true then b :: t
    else if m = 0 then (if [60, 33, 45, 45].isPrefixOf (b :: t) then scL last 1 2 (t.drop 3) else scL last 0 0 t)
    else if b = 45 then scL last m (min (d + 1) 2) t
    else if b = 62 ∧ d = 2 then scL last 0 0 t
    else if b = 60 ∧ (if m = 1 then 0 < wordN t else t.head? = some 47) then scW last m (t.drop (m - 1))
    else scL last m 0 t := by
  conv => lhs; unfold scL
  rw [List.length_cons]
  unfold scF
  have e1 : ∀ m d j, scF last (t.length + 1) m d (t.drop j) = scL last m d (t.drop j) := fun m d j => scL_eq last _ m d _ (by rw [List.length_drop]; omega)
  have e0 : ∀ m d, scF last (t.length + 1) m d t = scL last m d t := fun m d => scL_eq last _ m d _ (by omega)
  simp only [e1, e0]
  unfold scW
  have hu : ((t.drop (m - 1)).drop (wordN (t.drop (m - 1)))).length ≤ t.length := by rw [List.length_drop, List.length_drop]; omega
  generalize (t.drop (m - 1)).drop (wordN (t.drop (m - 1))) = u at hu
  cases u with
  | nil => rfl
  | cons c r =>
    simp only [List.length_cons] at hu
    simp only
    rw [scL_eq last _ _ _ r (by omega), scL_eq last _ _ _ (c :: r) (by simp; omega)]

theorem scL_stop (last : List UInt8) (m d : Nat) (t : List UInt8) (hm : m < 2) (h : closesL last t = true) : scL last m d t = t := by
  cases t with
  | nil => exact scL_nil last m d
  | cons b t => rw [scL_cons, if_pos ⟨hm, h⟩]
theorem scL_0 (last : List UInt8) (d : Nat) (b : UInt8) (t : List UInt8) (h : closesL last (b :: t) = false) (hp : [60, 33, 45, 45].isPrefixOf (b :: t) = false) : scL last 0 d (b :: t) = scL last 0 0 t := by
  rw [scL_cons, if_neg (by simp [h]), if_pos rfl, hp, if_neg (by simp)]
theorem scL_0b (last : List UInt8) (b : UInt8) (t : List UInt8) (h : b ≠ 60) : scL last 0 0 (b :: t) = scL last 0 0 t := by
  refine scL_0 last 0 b t ?_ ?_
  · rw [Bool.eq_false_iff]; intro e; exact h (closesL_lt e)
  · rw [Bool.eq_false_iff]; intro e; simp [List.isPrefixOf] at e; exact h e.1.symm
theorem scL_0run (last : List UInt8) : ∀ (n : Nat) (t : List UInt8), (∀ x ∈ t.take n, x ≠ 60) → scL last 0 0 t = scL last 0 0 (t.drop n)
  | 0, t, _ => by simp
  | n + 1, [], _ => by simp
  | n + 1, b :: t, h => by
    rw [scL_0b last b t (h b (by simp)), List.drop_succ_cons]
    exact scL_0run last n t fun x hx => h x (by simp [hx])
theorem closes_bang (last t : List UInt8) : closesL last (60 :: 33 :: t) = false := by simp [closesL, List.isPrefixOf]
theorem scL_open (last t : List UInt8) : scL last 0 0 (60 :: 33 :: 45 :: 45 :: t) = scL last 1 2 t := by
  rw [scL_cons, if_neg (by simp [closes_bang]), if_pos rfl, if_pos (by simp [List.isPrefixOf])]
  rfl
theorem scL_bang (last t : List UInt8) (h : ¬ [45, 45].isPrefixOf t = true) : scL last 0 0 (60 :: 33 :: t) = scL last 0 0 t := by
  rw [scL_0 last 0 60 (33 :: t) (closes_bang last t) (by rw [Bool.eq_false_iff]; intro e; apply h; simp [List.isPrefixOf] at e ⊢; exact e), scL_0b last 33 t (by decide)]
theorem closes_ne (last : List UInt8) {b : UInt8} (t : List UInt8) (h : b ≠ 60) : closesL last (b :: t) = false := by rw [Bool.eq_false_iff]; intro e; exact h (closesL_lt e)
theorem scL_dash (last : List UInt8) (m d : Nat) (t : List UInt8) (hm : m ≠ 0) : scL last m d (45 :: t) = scL last m (min (d + 1) 2) t := by
  rw [scL_cons, if_neg (by simp [closes_ne last t (show (45 : UInt8) ≠ 60 by decide)]), if_neg hm, if_pos rfl]
theorem scL_gt (last : List UInt8) (m : Nat) (t : List UInt8) (hm : m ≠ 0) : scL last m 2 (62 :: t) = scL last 0 0 t := by
  rw [scL_cons, if_neg (by simp [closes_ne last t (show (62 : UInt8) ≠ 60 by decide)]), if_neg hm, if_neg (by decide), if_pos ⟨rfl, rfl⟩]
/-- The hyphens before do not matter if neither a hyphen follows, nor a ">" that they make an end of. -/
theorem scL_d (last : List UInt8) (m d : Nat) (t : List UInt8) (h1 : t.head? ≠ some 45) (h2 : t.head? ≠ some 62 ∨ d ≠ 2) : scL last m d t = scL last m 0 t := by
  cases t with
  | nil => rw [scL_nil, scL_nil]
  | cons b t =>
    have hb : b ≠ 45 := by simpa using h1
    have hg : ¬ (b = 62 ∧ d = 2) := by rintro ⟨rfl, rfl⟩; rcases h2 with h | h <;> simp at h
    rw [scL_cons last m d, scL_cons last m 0, if_neg hb, if_neg hb, if_neg hg, if_neg (show ¬ (b = 62 ∧ 0 = 2) by simp)]
theorem scL_word (last : List UInt8) (d : Nat) (t : List UInt8) (h : closesL last (60 :: t) = false) (hw : 0 < wordN t) : scL last 1 d (60 :: t) = scW last 1 t := by
  rw [scL_cons, if_neg (by simp [h]), if_neg (by decide), if_neg (by decide), if_neg (by simp), if_pos ⟨rfl, by simpa using hw⟩]
  rfl
theorem scL_word2 (last : List UInt8) (d : Nat) (t : List UInt8) : scL last 2 d (60 :: 47 :: t) = scW last 2 t := by
  rw [scL_cons, if_neg (by simp), if_neg (by decide), if_neg (by decide), if_neg (by simp), if_pos ⟨rfl, by simp⟩]
  rfl
theorem scL_1b (last : List UInt8) (b : UInt8) (t : List UInt8) (h : closesL last (b :: t) = false) (hb : b ≠ 45) (hw : ¬ (b = 60 ∧ 0 < wordN t)) : scL last 1 0 (b :: t) = scL last 1 0 t := by
  rw [scL_cons, if_neg (by simp [h]), if_neg (by decide), if_neg hb, if_neg (by simp), if_neg (by simpa using hw)]
theorem scL_2b (last : List UInt8) (b : UInt8) (t : List UInt8) (hb : b ≠ 45) (hw : ¬ (b = 60 ∧ t.head? = some 47)) : scL last 2 0 (b :: t) = scL last 2 0 t := by
  rw [scL_cons, if_neg (by simp), if_neg (by decide), if_neg hb, if_neg (by simp), if_neg (by simpa using hw)]
/-- Behind a word: no end, another byte, or an end of the word. -/
theorem scW_nil (last : List UInt8) (m : Nat) (t : List UInt8) (h : t.drop (wordN t) = []) : scW last m t = [] := by unfold scW; rw [h]
theorem scW_no (last : List UInt8) (m : Nat) (t r : List UInt8) (c : UInt8) (h : t.drop (wordN t) = c :: r) (hc : enU c = false) : scW last m t = scL last m 0 (c :: r) := by unfold scW; rw [h]; simp only; rw [hc, if_neg (by simp)]
theorem scW_yes (last : List UInt8) (m : Nat) (t r : List UInt8) (c : UInt8) (h : t.drop (wordN t) = c :: r) (hc : enU c = true) : scW last m t = scL last (if lowL (t.take (wordN t)) = sScript then 3 - m else m) 0 r := by unfold scW; rw [h]; simp only; rw [hc, if_pos rfl]
end Go.Proofs.YtnfccckodgknjaaGreatDoor

namespace Go.Proofs.YtnfccckodgknjaaGreatDoor
open Go.Lib

end Go.Proofs.YtnfccckodgknjaaGreatDoor
