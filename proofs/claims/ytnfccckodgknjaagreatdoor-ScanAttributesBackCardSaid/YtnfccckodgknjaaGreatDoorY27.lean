/-
  A string with its references replaced, as lists of bytes; R: what reads one reference. No program in sight.
  Document type declarations, script data and end tags of raw text, as lists of bytes. No program in sight.
  Values and attributes, as lists of bytes; R: what reads one reference in an attribute. No program in sight.
  Attributes, step by step. No program in sight.
  Script data, step by step. No program in sight.
  The end tag of raw text, in the document's words. No program in sight.
-/
import Derived.Test.YtnfccckodgknjaaGreatDoorY02
import Derived.Test.YtnfccckodgknjaaGreatDoorY26
import Derived.Test.YtnfccckodgknjaaGreatDoorY04
namespace Go.Proofs.YtnfccckodgknjaaGreatDoor
open Go.Lib

abbrev RefF := List UInt8 → List UInt8 × Nat
def resF (R : RefF) : Nat → List UInt8 → List UInt8
  | 0, _ => []
  | _ + 1, [] => []
  | n + 1, b :: t => if b = 38 then (R t).1 ++ resF R n (t.drop (R t).2) else nul1 b ++ resF R n t
def res (R : RefF) (l : List UInt8) : List UInt8 := resF R l.length l
theorem resF_more (R : RefF) : ∀ (n m : Nat) (l : List UInt8), l.length ≤ n → l.length ≤ m → resF R n l = resF R m l
  | 0, m, l, h, _ => by
    have : l = [] := List.length_eq_zero_iff.1 (by omega)
    subst this
    cases m <;> rfl
  | n + 1, 0, l, _, h => by
    have : l = [] := List.length_eq_zero_iff.1 (by omega)
    subst this
    rfl
  | n + 1, m + 1, [], _, _ => rfl
  | n + 1, m + 1, b :: t, h1, h2 => by
    simp only [List.length_cons] at h1 h2
    unfold resF
    rw [resF_more R n m (t.drop (R t).2) (by simp; omega) (by simp; omega), resF_more R n m t (by omega) (by omega)]
theorem res_nil (R : RefF) : res R [] = [] := rfl
theorem res_b (R : RefF) (b : UInt8) (t : List UInt8) (h : b ≠ 38) : res R (b :: t) = nul1 b ++ res R t := by
  unfold res
  rw [List.length_cons, resF, if_neg h]
theorem res_amp (R : RefF) (t : List UInt8) : res R (38 :: t) = (R t).1 ++ res R (t.drop (R t).2) := by
  unfold res
  rw [List.length_cons, resF, if_pos rfl, resF_more R t.length (t.drop (R t).2).length _ (by simp) (Nat.le_refl _)]
theorem res_run (R : RefF) (r : List UInt8) : ∀ u : List UInt8, (∀ x ∈ u, x ≠ 38) → res R (u ++ r) = nulL u ++ res R r
  | [], _ => by simp [nulL_nil]
  | b :: t, h => by
    rw [List.cons_append, res_b R b _ (h b (by simp)), res_run R r t fun x hx => h x (by simp [hx]), nulL_cons, List.append_assoc]
theorem res_plain (R : RefF) (u : List UInt8) (h : ∀ x ∈ u, x ≠ 38) : res R u = nulL u := by
  have := res_run R [] u h
  simpa [res_nil] using this

/-- What a reader of references keeps to: it consumes no more than there is, and a byte that stops it ends all. -/
structure RefOk (R : RefF) (stopsAt : UInt8 → Bool) : Prop where
  le : ∀ t, (R t).2 ≤ t.length
  cut : ∀ u c r, stopsAt c = true → R (u ++ c :: r) = R u

/-- Reading on to the first byte that q has, byte by byte. -/
def vlF (R : RefF) (q : UInt8 → Bool) : Nat → List UInt8 → List UInt8 → Option (List UInt8 × List UInt8)
  | 0, _, _ => none
  | _ + 1, _, [] => none
  | n + 1, o, b :: t => if q b then some (o, b :: t) else if b = 38 then vlF R q n (o ++ (R t).1) (t.drop (R t).2) else vlF R q n (o ++ nul1 b) t

theorem runN_drop_le (q : UInt8 → Bool) : ∀ (k : Nat) (t : List UInt8), k ≤ runN q t → runN q (t.drop k) = runN q t - k
  | 0, t, _ => by simp
  | k + 1, [], h => by simp [runN_nil]
  | k + 1, b :: t, h => by
    cases hq : q b
    · rw [runN_no t hq] at h ⊢
      rw [List.drop_succ_cons, runN_drop_le q k t (by omega)]
      omega
    · rw [runN_yes t hq] at h; omega
theorem runN_end_drop (q : UInt8 → Bool) : ∀ (k : Nat) (t : List UInt8), runN q t = t.length → runN q (t.drop k) = (t.drop k).length
  | 0, t, h => by simpa using h
  | k + 1, [], h => by simp [runN_nil]
  | k + 1, b :: t, h => by
    cases hq : q b
    · rw [runN_no t hq, List.length_cons] at h
      rw [List.drop_succ_cons]
      exact runN_end_drop q k t (by omega)
    · rw [runN_yes t hq, List.length_cons] at h; omega

theorem ref_in {R : RefF} {q : UInt8 → Bool} (hR : RefOk R q) (t : List UInt8) : R t = R (t.take (runN q t)) ∧ (R t).2 ≤ runN q t := by
  have e : R t = R (t.take (runN q t)) := by
    rcases runN_drop q t with h | ⟨c, r, h, hc⟩
    · have : t.take (runN q t) = t := by
        have := List.take_append_drop (runN q t) t
        rwa [h, List.append_nil] at this
      rw [this]
    · conv => lhs; rw [← List.take_append_drop (runN q t) t, h]
      exact hR.cut _ _ _ hc
  refine ⟨e, ?_⟩
  rw [e]
  have := hR.le (t.take (runN q t))
  rw [List.length_take] at this
  omega

theorem vlF_eq {R : RefF} {q : UInt8 → Bool} (hR : RefOk R q) (h38 : q 38 = false) : ∀ (n : Nat) (o u : List UInt8), u.length < n →
    vlF R q n o u = if runN q u < u.length then some (o ++ res R (u.take (runN q u)), u.drop (runN q u)) else none
  | 0, o, u, h => by omega
  | n + 1, o, [], _ => by simp [vlF, runN_nil]
  | n + 1, o, b :: t, h => by
    simp only [List.length_cons] at h
    unfold vlF
    cases hq : q b with
    | true => rw [if_pos rfl, runN_yes t hq, if_pos (by simp)]; simp [res_nil]
    | false =>
      rw [if_neg (by simp), runN_no t hq, List.take_succ_cons, List.drop_succ_cons, List.length_cons]
      by_cases hb : b = 38
      · subst hb
        rw [if_pos rfl]
        obtain ⟨e1, e2⟩ := ref_in hR t
        rw [vlF_eq hR h38 n _ (t.drop (R t).2) (by simp; omega), runN_drop_le q _ t e2, res_amp, ← e1, List.length_drop, List.drop_drop, show (R t).2 + (runN q t - (R t).2) = runN q t by omega]
        have hle := runN_le q t
        have e3 : (t.drop (R t).2).take (runN q t - (R t).2) = (t.take (runN q t)).drop (R t).2 := by rw [List.drop_take]
        rw [e3, List.append_assoc]
        by_cases hc : runN q t < t.length
        · rw [if_pos (by omega), if_pos (by omega)]
        · rw [if_neg (by omega), if_neg (by omega)]
      · rw [if_neg hb, vlF_eq hR h38 n _ t (by omega), res_b R b _ hb, List.append_assoc]
        by_cases hc : runN q t < t.length
        · rw [if_pos hc, if_pos (by omega)]
        · rw [if_neg hc, if_neg (by omega)]
theorem nul1_len (b : UInt8) : (nul1 b).length ≤ 3 := by unfold nul1; split <;> simp
theorem res_len (R : RefF) (K : Nat) (hK : 3 ≤ K) (hR : ∀ t, (R t).1.length ≤ K * ((R t).2 + 1)) (hle : ∀ t, (R t).2 ≤ t.length) : ∀ (n : Nat) (l : List UInt8), l.length ≤ n → (res R l).length ≤ K * l.length
  | _, [], _ => by simp [res_nil]
  | 0, b :: t, h => by simp at h
  | n + 1, b :: t, h => by
    simp only [List.length_cons] at h ⊢
    by_cases hb : b = 38
    · subst hb
      have ih := res_len R K hK hR hle n (t.drop (R t).2) (by simp; omega)
      have h1 := hR t
      have h2 := hle t
      rw [res_amp, List.length_append]
      rw [List.length_drop] at ih
      have e : K * (t.length + 1) = K * ((R t).2 + 1) + K * (t.length - (R t).2) := by rw [← Nat.mul_add]; congr 1; omega
      omega
    · have ih := res_len R K hK hR hle n t (by omega)
      have := nul1_len b
      rw [res_b R b t hb, List.length_append, Nat.mul_add, Nat.mul_one]
      omega
end Go.Proofs.YtnfccckodgknjaaGreatDoor

namespace Go.Proofs.YtnfccckodgknjaaGreatDoor
open Go.Lib

def lowB (b : UInt8) : UInt8 := if 65 ≤ b ∧ b ≤ 90 then b + 32 else b
def lowL (l : List UInt8) : List UInt8 := l.map lowB
def spU (b : UInt8) : Bool := spB b.toNat
def leU (b : UInt8) : Bool := letB b.toNat
/-- What ends a value without quotes; what ends a tag's name. -/
def ewU (b : UInt8) : Bool := spU b || b == 62
def enU (b : UInt8) : Bool := spU b || b == 62 || b == 47
def sk (t : List UInt8) : List UInt8 := t.drop (runN (fun b => !spU b) t)
def upTo62 (t : List UInt8) : List UInt8 := (t.drop (runN (fun b => b == 62) t)).drop 1

structure DocT where
  name : List UInt8 := []
  hasName : Bool := false
  pub : List UInt8 := []
  hasPub : Bool := false
  sys : List UInt8 := []
  hasSys : Bool := false
  quirks : Bool := false

def DocT.q (T : DocT) : DocT := { T with quirks := true }
def quU (b : UInt8) : Bool := b == 34 || b == 39
def kBogus (T : DocT) (t : List UInt8) : DocT × List UInt8 := (T, upTo62 t)
def kAfterSystem (T : DocT) (t : List UInt8) : DocT × List UInt8 := if sk t = [] then (T.q, []) else kBogus T (sk t)
def idN (q : UInt8) (t : List UInt8) : Nat := runN (fun b => b == 62 || b == q) t
def kInSystem (q : UInt8) (T : DocT) (t : List UInt8) : DocT × List UInt8 :=
  match t.drop (idN q t) with
  | [] => ({ T with sys := nulL (t.take (idN q t)), quirks := true }, [])
  | c :: r => if c = q then kAfterSystem { T with sys := nulL (t.take (idN q t)) } r else ({ T with sys := nulL (t.take (idN q t)), quirks := true }, r)
/-- Before a system identifier; g: whether a ">" is too early here. -/
def kBeforeSystem (g : Bool) (T : DocT) (t : List UInt8) : DocT × List UInt8 :=
  match sk t with
  | [] => (T.q, [])
  | c :: r => if c = 62 then ({ T with quirks := T.quirks || g }, r) else if quU c then kInSystem c { T with hasSys := true } r else kBogus T.q (c :: r)
def kInPublic (q : UInt8) (T : DocT) (t : List UInt8) : DocT × List UInt8 :=
  match t.drop (idN q t) with
  | [] => ({ T with pub := nulL (t.take (idN q t)), quirks := true }, [])
  | c :: r => if c = q then kBeforeSystem false { T with pub := nulL (t.take (idN q t)) } r else ({ T with pub := nulL (t.take (idN q t)), quirks := true }, r)
def kBeforePublic (T : DocT) (t : List UInt8) : DocT × List UInt8 :=
  match sk t with
  | [] => (T.q, [])
  | c :: r => if c = 62 then (T.q, r) else if quU c then kInPublic c { T with hasPub := true } r else kBogus T.q (c :: r)
def sPublic : List UInt8 := [112, 117, 98, 108, 105, 99]
def sSystem : List UInt8 := [115, 121, 115, 116, 101, 109]
def kAfterName (T : DocT) (t : List UInt8) : DocT × List UInt8 :=
  match sk t with
  | [] => (T.q, [])
  | c :: r => if c = 62 then (T, r) else if lowL ((c :: r).take 6) = sPublic then kBeforePublic T ((c :: r).drop 6) else if lowL ((c :: r).take 6) = sSystem then kBeforeSystem true T ((c :: r).drop 6) else kBogus T.q (c :: r)
def kInName (T : DocT) (t : List UInt8) : DocT × List UInt8 := kAfterName { T with name := lowL (nulL (t.take (runN ewU t))), hasName := true } (t.drop (runN ewU t))
def kBeforeName (T : DocT) (t : List UInt8) : DocT × List UInt8 :=
  match sk t with
  | [] => (T.q, [])
  | c :: r => if c = 62 then (T.q, r) else kInName T (c :: r)
/-- A declaration behind its keyword. -/
def docL (t : List UInt8) : DocT × List UInt8 := kBeforeName {} t

/-- Whether an end tag for last begins here. -/
def closesL (last t : List UInt8) : Bool :=
  !last.isEmpty && [60, 47].isPrefixOf t && (((t.drop 2).take (runN (fun b => !leU b) (t.drop 2))).length == last.length) && (lowL ((t.drop 2).take (runN (fun b => !leU b) (t.drop 2))) == last) &&
    (match (t.drop 2).drop (runN (fun b => !leU b) (t.drop 2)) with | [] => false | c :: _ => enU c)
/-- What is left where the first end tag for last begins. -/
def stopL (last : List UInt8) : List UInt8 → List UInt8
  | [] => []
  | b :: t => if closesL last (b :: t) then b :: t else stopL last t

theorem closesL_lt {last : List UInt8} {b : UInt8} {t : List UInt8} (h : closesL last (b :: t) = true) : b = 60 := by
  simp only [closesL, Bool.and_eq_true] at h
  have := h.1.1.1.2
  simp [List.isPrefixOf] at this
  exact this.1.symm
theorem closesL_nil (last : List UInt8) : closesL last [] = false := by simp [closesL, List.isPrefixOf]
theorem stopL_len (last : List UInt8) : ∀ t, (stopL last t).length ≤ t.length
  | [] => Nat.le_refl _
  | b :: t => by
    rw [stopL]
    split
    · exact Nat.le_refl _
    · have := stopL_len last t; simp; omega
theorem stopL_suffix (last : List UInt8) : ∀ t, ∃ k, stopL last t = t.drop k
  | [] => ⟨0, rfl⟩
  | b :: t => by
    rw [stopL]
    split
    · exact ⟨0, rfl⟩
    · obtain ⟨k, hk⟩ := stopL_suffix last t
      exact ⟨k + 1, hk⟩
theorem stopL_run (last : List UInt8) : ∀ (n : Nat) (t : List UInt8), (∀ x ∈ t.take n, x ≠ 60) → stopL last t = stopL last (t.drop n)
  | 0, t, _ => by simp
  | n + 1, [], _ => by simp
  | n + 1, b :: t, h => by
    have hb : b ≠ 60 := h b (by simp)
    have hc : closesL last (b :: t) = false := by
      rw [Bool.eq_false_iff]
      intro e
      exact hb (closesL_lt e)
    rw [stopL, hc, if_neg (by simp), List.drop_succ_cons]
    exact stopL_run last n t fun x hx => h x (by simp [hx])

/-- Script data: mode 0 (plain), 1 (escaped), 2 (double escaped); d: hyphens directly before, at most 2. -/
def sScript : List UInt8 := [115, 99, 114, 105, 112, 116]
def wordN (t : List UInt8) : Nat := runN (fun b => !leU b) t
def scF (last : List UInt8) : Nat → Nat → Nat → List UInt8 → List UInt8
  | 0, _, _, t => t
  | _ + 1, _, _, [] => []
  | n + 1, m, d, b :: t =>
    if m < 2 ∧ closesL last (b :: t) = true then b :: t
    else if m = 0 then (if [60, 33, 45, 45].isPrefixOf (b :: t) then scF last n 1 2 (t.drop 3) else scF last n 0 0 t)
    else if b = 45 then scF last n m (min (d + 1) 2) t
    else if b = 62 ∧ d = 2 then scF last n 0 0 t
    else if b = 60 ∧ (if m = 1 then 0 < wordN t else t.head? = some 47) then
      (match (t.drop (m - 1)).drop (wordN (t.drop (m - 1))) with
        | [] => []
        | c :: r => if enU c then scF last n (if lowL ((t.drop (m - 1)).take (wordN (t.drop (m - 1)))) = sScript then 3 - m else m) 0 r else scF last n m 0 (c :: r))
    else scF last n m 0 t
def scL (last : List UInt8) (m d : Nat) (t : List UInt8) : List UInt8 := scF last (t.length + 1) m d t
end Go.Proofs.YtnfccckodgknjaaGreatDoor

namespace Go.Proofs.YtnfccckodgknjaaGreatDoor
open Go.Lib

/-- The value of an attribute, behind its "=": it, and what follows; none: it is not complete. -/
def vaL (R : RefF) (t : List UInt8) : Option (List UInt8 × List UInt8) :=
  match sk t with
  | [] => none
  | c :: r => if quU c then (if runN (fun b => b == c) r < r.length then some (res R (r.take (runN (fun b => b == c) r)), r.drop (runN (fun b => b == c) r + 1)) else none)
    else (if runN ewU (c :: r) < (c :: r).length then some (res R ((c :: r).take (runN ewU (c :: r))), (c :: r).drop (runN ewU (c :: r))) else none)

abbrev AttL := List (List UInt8 × List UInt8)
def knownL (l : AttL) (n : List UInt8) : Bool := l.any fun a => a.1 == n
def addL (l : AttL) (n v : List UInt8) : AttL := if knownL l n then l else l ++ [(n, v)]
def eqU (b : UInt8) : Bool := enU b || b == 61
/-- The name of the attribute that begins with b, and what follows it and its spaces. -/
def atName (b : UInt8) (r : List UInt8) : List UInt8 := lowL (nulL (b :: r.take (runN eqU r)))
def atRest (r : List UInt8) : List UInt8 := sk (r.drop (runN eqU r))
def atF (R : RefF) : Nat → AttL → List UInt8 → Option (AttL × Bool × List UInt8)
  | 0, _, _ => none
  | n + 1, acc, t =>
    match sk t with
    | [] => none
    | b :: r =>
      if b = 62 then some (acc, false, r)
      else if b = 47 then (if r.head? = some 62 then some (acc, true, r.drop 1) else atF R n acc r)
      else if (atRest r).head? = some 61 then (match vaL R ((atRest r).drop 1) with | none => none | some p => atF R n (addL acc (atName b r) p.1) p.2)
      else atF R n (addL acc (atName b r) []) (atRest r)
def atL (R : RefF) (t : List UInt8) : Option (AttL × Bool × List UInt8) := atF R (t.length + 1) [] t

theorem sk_len (t : List UInt8) : (sk t).length ≤ t.length := by unfold sk; simp
theorem vaL_len {R : RefF} {t : List UInt8} {v x : List UInt8} (h : vaL R t = some (v, x)) : x.length ≤ t.length := by
  unfold vaL at h
  have hs := sk_len t
  generalize sk t = u at h hs
  cases u with
  | nil => simp at h
  | cons c r =>
    simp only at h
    split at h
    · split at h
      · simp only [Option.some.injEq, Prod.mk.injEq] at h
        rw [← h.2, List.length_drop]
        simp at hs
        omega
      · simp at h
    · split at h
      · simp only [Option.some.injEq, Prod.mk.injEq] at h
        rw [← h.2, List.length_drop]
        omega
      · simp at h
theorem atRest_len (r : List UInt8) : (atRest r).length ≤ r.length := by
  unfold atRest
  have := sk_len (r.drop (runN eqU r))
  rw [List.length_drop] at this
  omega
end Go.Proofs.YtnfccckodgknjaaGreatDoor

namespace Go.Proofs.YtnfccckodgknjaaGreatDoor
open Go.Lib

theorem atF_fuel (R : RefF) : ∀ (n m : Nat) (acc : AttL) (t : List UInt8), t.length < n → t.length < m → atF R n acc t = atF R m acc t
  | 0, _, _, _, h, _ => absurd h (by omega)
  | _ + 1, 0, _, _, _, h => absurd h (by omega)
  | n + 1, m + 1, acc, t, h1, h2 => by
    have hsk := sk_len t
    unfold atF
    cases hs : sk t with
    | nil => rfl
    | cons b r =>
      rw [hs, List.length_cons] at hsk
      simp only
      have hr := atRest_len r
      rw [atF_fuel R n m acc r (by omega) (by omega), atF_fuel R n m _ (atRest r) (by omega) (by omega)]
      cases hv : vaL R ((atRest r).drop 1) with
      | none => rfl
      | some p =>
        have hp := vaL_len (show vaL R ((atRest r).drop 1) = some (p.1, p.2) from hv)
        rw [List.length_drop] at hp
        simp only
        rw [atF_fuel R n m _ p.2 (by omega) (by omega)]
def atG (R : RefF) (acc : AttL) (t : List UInt8) : Option (AttL × Bool × List UInt8) := atF R (t.length + 1) acc t
theorem atG_step (R : RefF) (acc : AttL) (t : List UInt8) : atG R acc t =
    match sk t with
    | [] => none
    | b :: r =>
      if b = 62 then some (acc, false, r)
      else if b = 47 then (if r.head? = some 62 then some (acc, true, r.drop 1) else atG R acc r)
      else if (atRest r).head? = some 61 then (match vaL R ((atRest r).drop 1) with | none => none | some p => atG R (addL acc (atName b r) p.1) p.2)
      else atG R (addL acc (atName b r) []) (atRest r) := by
  have hsk := sk_len t
  unfold atG
  conv => lhs; unfold atF
  cases hs : sk t with
  | nil => rfl
  | cons b r =>
    rw [hs, List.length_cons] at hsk
    simp only
    have hr := atRest_len r
    rw [atF_fuel R t.length (r.length + 1) acc r (by omega) (by omega), atF_fuel R t.length ((atRest r).length + 1) _ (atRest r) (by omega) (by omega)]
    cases hv : vaL R ((atRest r).drop 1) with
    | none => rfl
    | some p =>
      have hp := vaL_len (show vaL R ((atRest r).drop 1) = some (p.1, p.2) from hv)
      rw [List.length_drop] at hp
      simp only
      rw [atF_fuel R t.length (p.2.length + 1) _ p.2 (by omega) (by omega)]
theorem atG_nil (R : RefF) (acc : AttL) : atG R acc [] = none := rfl
theorem atG_0 (R : RefF) (t : List UInt8) : atG R [] t = atL R t := rfl
theorem knownL_add (acc : AttL) (n v : List UInt8) (_h : knownL acc n = false) : knownL (acc ++ [(n, v)]) = fun l => l == n || knownL acc l := by
  funext l
  simp only [knownL, List.any_append, List.any_cons, List.any_nil, Bool.or_false]
  rw [Bool.or_comm]
  congr 1
  rw [Bool.eq_iff_iff, beq_iff_eq, beq_iff_eq]
  exact ⟨fun h => h.symm, fun h => h.symm⟩
theorem addL_yes {acc : AttL} {n : List UInt8} (v : List UInt8) (h : knownL acc n = true) : addL acc n v = acc := by unfold addL; rw [if_pos h]
theorem addL_no {acc : AttL} {n : List UInt8} (v : List UInt8) (h : knownL acc n = false) : addL acc n v = acc ++ [(n, v)] := by unfold addL; rw [h, if_neg Bool.false_ne_true]
end Go.Proofs.YtnfccckodgknjaaGreatDoor

namespace Go.Proofs.YtnfccckodgknjaaGreatDoor
open Go.Lib

/-- Behind a "<" and a word, or a "</" and a word. -/
def scW (last : List UInt8) (m : Nat) (t : List UInt8) : List UInt8 :=
  match t.drop (wordN t) with
  | [] => []
  | c :: r => if enU c then scL last (if lowL (t.take (wordN t)) = sScript then 3 - m else m) 0 r else scL last m 0 (c :: r)

theorem scF_more (last : List UInt8) : ∀ (n k m d : Nat) (t : List UInt8), t.length < n → t.length < k → scF last n m d t = scF last k m d t
  | 0, k, m, d, t, h, _ => absurd h (by omega)
  | n + 1, 0, m, d, t, _, h => absurd h (by omega)
  | n + 1, k + 1, m, d, [], _, _ => rfl
  | n + 1, k + 1, m, d, b :: t, h1, h2 => by
    simp only [List.length_cons] at h1 h2
    unfold scF
    have e1 : ∀ m d j, scF last n m d (t.drop j) = scF last k m d (t.drop j) := fun m d j => scF_more last n k m d _ (by rw [List.length_drop]; omega) (by rw [List.length_drop]; omega)
    have e0 : ∀ m d, scF last n m d t = scF last k m d t := fun m d => scF_more last n k m d _ (by omega) (by omega)
    have e2 : ∀ (u : List UInt8) (r : List UInt8) m d, u.length ≤ t.length → r.length ≤ u.length → scF last n m d r = scF last k m d r := fun u r m d h h' => scF_more last n k m d _ (by omega) (by omega)
    simp only [e1, e0]
    have hu : ((t.drop (m - 1)).drop (wordN (t.drop (m - 1)))).length ≤ t.length := by rw [List.length_drop, List.length_drop]; omega
    generalize (t.drop (m - 1)).drop (wordN (t.drop (m - 1))) = u at hu
    cases u with
    | nil => rfl
    | cons c r =>
      simp only [List.length_cons] at hu
      simp only
      rw [e2 (c :: r) r _ _ (by simp; omega) (by simp), e2 (c :: r) (c :: r) _ _ (by simp; omega) (Nat.le_refl _)]
theorem scL_eq (last : List UInt8) (n m d : Nat) (t : List UInt8) (h : t.length < n) : scF last n m d t = scL last m d t := scF_more last n _ m d t h (by omega)
theorem scL_nil (last : List UInt8) (m d : Nat) : scL last m d [] = [] := rfl
theorem scL_cons (last : List UInt8) (m d : Nat) (b : UInt8) (t : List UInt8) : scL last m d (b :: t) =
    if m < 2 ∧ closesL last (b :: t) = true then b :: t
    else if m = 0 then (if [60, 33, 45, 45].isPrefixOf (b :: t) then scL last 1 2 (t.drop 3) else scL last 0 0 t)
    else if b = 45 then scL last m (min (d + 1) 2) t
    else if b = 62 ∧ d = 2 then scL last 0 0 t
    else if b = 60 ∧ (if m = 1 then 0 < wordN t else t.head? = some 47) then scW last m (t.drop (m - 1))
    else scL last m 0 t := by
  conv => lhs; unfold scL
  rw [List.length_cons]
  unfold scF
  have e1 : ∀ m d j, scF last (t.length + 1) m d (t.drop j) = scL last m d (t.drop j) := fun m d j => scL_eq last _ m d _ (by rw [List.length_drop]; omega)
  have e0 : ∀ m d, scF last (t.length + 1) m d t = scL last m d t := fun m d => scL_eq last _ m d _ (by omega)
  simp only [e1, e0]
  unfold scW
  have hu : ((t.drop (m - 1)).drop (wordN (t.drop (m - 1)))).length ≤ t.length := by rw [List.length_drop, List.length_drop]; omega
  generalize (t.drop (m - 1)).drop (wordN (t.drop (m - 1))) = u at hu
  cases u with
  | nil => rfl
  | cons c r =>
    simp only [List.length_cons] at hu
    simp only
    rw [scL_eq last _ _ _ r (by omega), scL_eq last _ _ _ (c :: r) (by simp; omega)]

theorem scL_stop (last : List UInt8) (m d : Nat) (t : List UInt8) (hm : m < 2) (h : closesL last t = true) : scL last m d t = t := by
  cases t with
  | nil => exact scL_nil last m d
  | cons b t => rw [scL_cons, if_pos ⟨hm, h⟩]
theorem scL_0 (last : List UInt8) (d : Nat) (b : UInt8) (t : List UInt8) (h : closesL last (b :: t) = false) (hp : [60, 33, 45, 45].isPrefixOf (b :: t) = false) : scL last 0 d (b :: t) = scL last 0 0 t := by
  rw [scL_cons, if_neg (by simp [h]), if_pos rfl, hp, if_neg (by simp)]
theorem scL_0b (last : List UInt8) (b : UInt8) (t : List UInt8) (h : b ≠ 60) : scL last 0 0 (b :: t) = scL last 0 0 t := by
  refine scL_0 last 0 b t ?_ ?_
  · rw [Bool.eq_false_iff]; intro e; exact h (closesL_lt e)
  · rw [Bool.eq_false_iff]; intro e; simp [List.isPrefixOf] at e; exact h e.1.symm
theorem scL_0run (last : List UInt8) : ∀ (n : Nat) (t : List UInt8), (∀ x ∈ t.take n, x ≠ 60) → scL last 0 0 t = scL last 0 0 (t.drop n)
  | 0, t, _ => by simp
  | n + 1, [], _ => by simp
  | n + 1, b :: t, h => by
    rw [scL_0b last b t (h b (by simp)), List.drop_succ_cons]
    exact scL_0run last n t fun x hx => h x (by simp [hx])
theorem closes_bang (last t : List UInt8) : closesL last (60 :: 33 :: t) = false := by simp [closesL, List.isPrefixOf]
theorem scL_open (last t : List UInt8) : scL last 0 0 (60 :: 33 :: 45 :: 45 :: t) = scL last 1 2 t := by
  rw [scL_cons, if_neg (by simp [closes_bang]), if_pos rfl, if_pos (by simp [List.isPrefixOf])]
  rfl
theorem scL_bang (last t : List UInt8) (h : ¬ [45, 45].isPrefixOf t = true) : scL last 0 0 (60 :: 33 :: t) = scL last 0 0 t := by
  rw [scL_0 last 0 60 (33 :: t) (closes_bang last t) (by rw [Bool.eq_false_iff]; intro e; apply h; simp [List.isPrefixOf] at e ⊢; exact e), scL_0b last 33 t (by decide)]
theorem closes_ne (last : List UInt8) {b : UInt8} (t : List UInt8) (h : b ≠ 60) : closesL last (b :: t) = false := by rw [Bool.eq_false_iff]; intro e; exact h (closesL_lt e)
theorem scL_dash (last : List UInt8) (m d : Nat) (t : List UInt8) (hm : m ≠ 0) : scL last m d (45 :: t) = scL last m (min (d + 1) 2) t := by
  rw [scL_cons, if_neg (by simp [closes_ne last t (show (45 : UInt8) ≠ 60 by decide)]), if_neg hm, if_pos rfl]
theorem scL_gt (last : List UInt8) (m : Nat) (t : List UInt8) (hm : m ≠ 0) : scL last m 2 (62 :: t) = scL last 0 0 t := by
  rw [scL_cons, if_neg (by simp [closes_ne last t (show (62 : UInt8) ≠ 60 by decide)]), if_neg hm, if_neg (by decide), if_pos ⟨rfl, rfl⟩]
/-- The hyphens before do not matter if neither a hyphen follows, nor a ">" that they make an end of. -/
theorem scL_d (last : List UInt8) (m d : Nat) (t : List UInt8) (h1 : t.head? ≠ some 45) (h2 : t.head? ≠ some 62 ∨ d ≠ 2) : scL last m d t = scL last m 0 t := by
  cases t with
  | nil => rw [scL_nil, scL_nil]
  | cons b t =>
    have hb : b ≠ 45 := by simpa using h1
    have hg : ¬ (b = 62 ∧ d = 2) := by rintro ⟨rfl, rfl⟩; rcases h2 with h | h <;> simp at h
    rw [scL_cons last m d, scL_cons last m 0, if_neg hb, if_neg hb, if_neg hg, if_neg (show ¬ (b = 62 ∧ 0 = 2) by simp)]
theorem scL_word (last : List UInt8) (d : Nat) (t : List UInt8) (h : closesL last (60 :: t) = false) (hw : 0 < wordN t) : scL last 1 d (60 :: t) = scW last 1 t := by
  rw [scL_cons, if_neg (by simp [h]), if_neg (by decide), if_neg (by decide), if_neg (by simp), if_pos ⟨rfl, by simpa using hw⟩]
  rfl
theorem scL_word2 (last : List UInt8) (d : Nat) (t : List UInt8) : scL last 2 d (60 :: 47 :: t) = scW last 2 t := by
  rw [scL_cons, if_neg (by simp), if_neg (by decide), if_neg (by decide), if_neg (by simp), if_pos ⟨rfl, by simp⟩]
  rfl
theorem scL_1b (last : List UInt8) (b : UInt8) (t : List UInt8) (h : closesL last (b :: t) = false) (hb : b ≠ 45) (hw : ¬ (b = 60 ∧ 0 < wordN t)) : scL last 1 0 (b :: t) = scL last 1 0 t := by
  rw [scL_cons, if_neg (by simp [h]), if_neg (by decide), if_neg hb, if_neg (by simp), if_neg (by simpa using hw)]
theorem scL_2b (last : List UInt8) (b : UInt8) (t : List UInt8) (hb : b ≠ 45) (hw : ¬ (b = 60 ∧ t.head? = some 47)) : scL last 2 0 (b :: t) = scL last 2 0 t := by
  rw [scL_cons, if_neg (by simp), if_neg (by decide), if_neg hb, if_neg (by simp), if_neg (by simpa using hw)]
/-- Behind a word: no end, another byte, or an end of the word. -/
theorem scW_nil (last : List UInt8) (m : Nat) (t : List UInt8) (h : t.drop (wordN t) = []) : scW last m t = [] := by unfold scW; rw [h]
theorem scW_no (last : List UInt8) (m : Nat) (t r : List UInt8) (c : UInt8) (h : t.drop (wordN t) = c :: r) (hc : enU c = false) : scW last m t = scL last m 0 (c :: r) := by unfold scW; rw [h]; simp only; rw [hc, if_neg (by simp)]
theorem scW_yes (last : List UInt8) (m : Nat) (t r : List UInt8) (c : UInt8) (h : t.drop (wordN t) = c :: r) (hc : enU c = true) : scW last m t = scL last (if lowL (t.take (wordN t)) = sScript then 3 - m else m) 0 r := by unfold scW; rw [h]; simp only; rw [hc, if_pos rfl]
theorem scF_suffix (last : List UInt8) : ∀ (n m d : Nat) (t : List UInt8), ∃ k, scF last n m d t = t.drop k
  | 0, m, d, t => ⟨0, rfl⟩
  | n + 1, m, d, [] => ⟨0, rfl⟩
  | n + 1, m, d, b :: t => by
    have key : ∀ m d j, ∃ k, scF last n m d (t.drop j) = (b :: t).drop k := fun m d j => by
      obtain ⟨k, hk⟩ := scF_suffix last n m d (t.drop j)
      exact ⟨j + k + 1, by rw [hk, List.drop_drop, List.drop_succ_cons]⟩
    have key0 : ∀ m d, ∃ k, scF last n m d t = (b :: t).drop k := fun m d => by simpa using key m d 0
    unfold scF
    by_cases c1 : m < 2 ∧ closesL last (b :: t) = true
    · rw [if_pos c1]; exact ⟨0, rfl⟩
    rw [if_neg c1]
    by_cases c2 : m = 0
    · rw [if_pos c2]
      split
      · exact key _ _ _
      · exact key0 _ _
    rw [if_neg c2]
    by_cases c3 : b = 45
    · rw [if_pos c3]; exact key0 _ _
    rw [if_neg c3]
    by_cases c4 : b = 62 ∧ d = 2
    · rw [if_pos c4]; exact key0 _ _
    rw [if_neg c4]
    by_cases c5 : b = 60 ∧ (if m = 1 then 0 < wordN t else t.head? = some 47)
    · rw [if_pos c5]
      have hj : ∃ j, (t.drop (m - 1)).drop (wordN (t.drop (m - 1))) = t.drop j := ⟨m - 1 + wordN (t.drop (m - 1)), by rw [List.drop_drop]⟩
      obtain ⟨j, hj⟩ := hj
      rw [hj]
      have hr : ∀ c r, t.drop j = c :: r → r = t.drop (j + 1) := by
        intro c r hu
        have := congrArg (List.drop 1) hu
        rw [List.drop_drop] at this
        simpa using this.symm
      cases hu : t.drop j with
      | nil => exact ⟨(b :: t).length, by simp⟩
      | cons c r =>
        simp only
        by_cases c6 : enU c = true
        · rw [if_pos c6, hr c r hu]; exact key _ _ _
        · rw [if_neg c6, ← hu]; exact key _ _ _
    · rw [if_neg c5]; exact key0 _ _
theorem scL_suffix (last : List UInt8) (m d : Nat) (t : List UInt8) : ∃ k, scL last m d t = t.drop k := scF_suffix last _ m d t
end Go.Proofs.YtnfccckodgknjaaGreatDoor

namespace Go.Proofs.YtnfccckodgknjaaGreatDoor
open Go.Lib

def azU (b : UInt8) : Bool := decide (97 ≤ b) && decide (b ≤ 122)
theorem leU_nat (b : UInt8) : leU b = (decide (65 ≤ b.toNat) && decide (b.toNat ≤ 90) || decide (97 ≤ b.toNat) && decide (b.toNat ≤ 122)) := by
  unfold leU letB
  rw [Bool.eq_iff_iff]
  simp
  omega
theorem azU_nat (b : UInt8) : azU b = (decide (97 ≤ b.toNat) && decide (b.toNat ≤ 122)) := by
  unfold azU
  simp [UInt8.le_iff_toNat_le]
theorem lowB_az (b : UInt8) : azU (lowB b) = leU b := by
  rw [leU_nat, azU_nat]
  unfold lowB
  by_cases h : 65 ≤ b ∧ b ≤ 90
  · rw [if_pos h]
    simp only [UInt8.le_iff_toNat_le] at h
    have h1 : (65 : UInt8).toNat = 65 := rfl
    have h2 : (90 : UInt8).toNat = 90 := rfl
    have h3 : (32 : UInt8).toNat = 32 := rfl
    have e : (b + 32).toNat = b.toNat + 32 := by rw [UInt8.toNat_add, h3]; omega
    rw [e, Bool.eq_iff_iff]
    simp
    omega
  · rw [if_neg h]
    simp only [UInt8.le_iff_toNat_le] at h
    have h1 : (65 : UInt8).toNat = 65 := rfl
    have h2 : (90 : UInt8).toNat = 90 := rfl
    rw [Bool.eq_iff_iff]
    simp
    omega
theorem enU_leU {c : UInt8} (h : enU c = true) : leU c = false := by
  rw [leU_nat]
  simp [enU, spU, spB] at h
  rw [Bool.eq_false_iff]
  simp
  have h62 : (62 : UInt8).toNat = 62 := rfl
  have h47 : (47 : UInt8).toNat = 47 := rfl
  rcases h with (h | h) | h
  · omega
  · subst h; omega
  · subst h; omega

/-- As the document words it. -/
def closesR (last t : List UInt8) : Bool :=
  last.all azU && decide (0 < last.length) && decide (last.length + 2 < t.length) && (t.take 2 == [60, 47]) && (lowL ((t.drop 2).take last.length) == last) && enU (t.getD (last.length + 2) 0)

theorem closes_eq (last t : List UInt8) : closesL last t = closesR last t := by
  rw [Bool.eq_iff_iff]
  unfold closesL closesR
  simp only [Bool.and_eq_true, beq_iff_eq, decide_eq_true_eq, Bool.not_eq_true', List.isEmpty_eq_false_iff]
  constructor
  · rintro ⟨⟨⟨⟨h1, h2⟩, h3⟩, h4⟩, h5⟩
    have hlen : last.length = runN (fun b => !leU b) (t.drop 2) := by
      rw [← h3, List.length_take]
      have := runN_le (fun b => !leU b) (t.drop 2)
      omega
    rw [← hlen] at h3 h4 h5
    cases hd : (t.drop 2).drop last.length with
    | nil => rw [hd] at h5; simp at h5
    | cons c r =>
      rw [hd] at h5
      simp only at h5
      rw [List.drop_drop] at hd
      have hlt : 2 + last.length < t.length := by
        have := congrArg List.length hd
        rw [List.length_drop, List.length_cons] at this
        omega
      have hc : t.getD (last.length + 2) 0 = c := by
        have e : t[2 + last.length]? = some c := by
          have := congrArg List.head? hd
          rw [List.head?_drop] at this
          simpa using this
        rw [Nat.add_comm, List.getD_eq_getElem?_getD, e]; rfl
      refine ⟨⟨⟨⟨⟨?_, List.length_pos_iff.2 h1⟩, by omega⟩, ?_⟩, h4⟩, by rw [hc]; exact h5⟩
      · rw [List.all_eq_true]
        intro x hx
        rw [← h4] at hx
        obtain ⟨y, hy, rfl⟩ := List.mem_map.1 hx
        rw [lowB_az]
        rw [hlen] at hy
        have := runN_take (fun b => !leU b) (t.drop 2) y hy
        simpa using this
      · rcases t with _ | ⟨a, _ | ⟨b, t⟩⟩
        · simp [List.isPrefixOf] at h2
        · simp [List.isPrefixOf] at h2
        · simp [List.isPrefixOf] at h2
          simp [h2.1.symm, h2.2.symm]
  · rintro ⟨⟨⟨⟨⟨h0, h1⟩, h2⟩, h3⟩, h4⟩, h5⟩
    have hlt2 : last.length < (t.drop 2).length := by rw [List.length_drop]; omega
    have hd : (t.drop 2).drop last.length = t.getD (last.length + 2) 0 :: (t.drop 2).drop (last.length + 1) := by
      rw [List.drop_eq_getElem_cons hlt2, List.getElem_drop, List.getD_eq_getElem?_getD, List.getElem?_eq_getElem h2]
      congr 1
      simp [Nat.add_comm]
    have hle : ∀ x ∈ (t.drop 2).take last.length, (fun b => !leU b) x = false := by
      intro x hx
      have : lowB x ∈ last := by rw [← h4]; exact List.mem_map_of_mem hx
      have := List.all_eq_true.1 h0 _ this
      rw [lowB_az] at this
      simpa using this
    have hrun : runN (fun b => !leU b) (t.drop 2) = last.length := by
      conv => lhs; rw [← List.take_append_drop last.length (t.drop 2), hd]
      rw [runN_app _ _ _ hle, runN_yes _ (by rw [enU_leU h5]; rfl), List.length_take]
      omega
    rw [hrun, hd]
    refine ⟨⟨⟨⟨List.length_pos_iff.1 h1, ?_⟩, by rw [List.length_take]; omega⟩, h4⟩, h5⟩
    rcases t with _ | ⟨a, _ | ⟨b, t⟩⟩
    · simp at h3
    · simp at h3
    · simp at h3
      simp [List.isPrefixOf, h3.1, h3.2]
end Go.Proofs.YtnfccckodgknjaaGreatDoor
