/-
  The document's own line ends.
-/
import Derived.Test.YtheiehbfbgjgpabDoorRlo
namespace Go.Proofs.YtheiehbfbgjgpabDoor
open Go.RowKit
set_option maxHeartbeats 1000000
set_option maxRecDepth 100000

def nlR : List UInt8 → List UInt8
  | [] => []
  | [b] => if b = 13 then [10] else [b]
  | b :: x :: t => if b = 13 then (if x = 10 then nlR (x :: t) else 10 :: nlR (x :: t)) else b :: nlR (x :: t)
theorem nlR_b (b : UInt8) (t : List UInt8) (h : ¬ b = 13) : nlR (b :: t) = b :: nlR t := by
  cases t with
  | nil => simp [nlR, h]
  | cons x t => rw [nlR, if_neg h]
theorem nlR_skip (t : List UInt8) : nlR (13 :: 10 :: t) = nlR (10 :: t) := by rw [nlR, if_pos rfl, if_pos rfl]
theorem nlR_10 (t : List UInt8) (h : ¬ t.head? = some 10) : nlR (13 :: t) = 10 :: nlR t := by
  cases t with
  | nil => rfl
  | cons x t => rw [nlR, if_pos rfl, if_neg (by simpa using h)]
theorem newL_nlR : ∀ (n : Nat) (l : List UInt8), l.length ≤ n → newL l = nlR l
  | _, [], _ => rfl
  | _, [b], _ => by
    unfold newL rep1
    rw [rep2, nlR]
    simp
  | 0, b :: x :: t, h => by simp at h
  | n + 1, b :: x :: t, h => by
    have i1 := newL_nlR n (x :: t) (by simp at h ⊢; omega)
    have i2 := newL_nlR n t (by simp at h ⊢; omega)
    unfold newL at i1 i2 ⊢
    rw [rep2]
    by_cases hb : b = 13
    · subst hb
      by_cases hx : x = 10
      · subst hx
        rw [if_pos ⟨rfl, rfl⟩, nlR_skip, nlR_b 10 t (by decide), ← i2]
        rfl
      · rw [if_neg (by simp [hx]), nlR_10 _ (by simpa using hx), ← i1]
        rfl
    · rw [if_neg (by simp [hb]), nlR_b b _ hb, ← i1]
      show rep1 13 [10] (b :: _) = _
      unfold rep1
      rw [List.flatMap_cons, if_neg hb]
      rfl
theorem nlR_no (n : Nat) : ∀ (l : List UInt8), l.length ≤ n → ∀ x ∈ nlR l, x ≠ 13 := by
  induction n with
  | zero =>
    intro l h
    have : l = [] := List.length_eq_zero_iff.1 (by omega)
    subst this
    simp [nlR]
  | succ n ih =>
    intro l h
    cases l with
    | nil => simp [nlR]
    | cons b t =>
      have i1 := ih t (by simp at h; omega)
      by_cases hb : b = 13
      · subst hb
        by_cases ht : t.head? = some 10
        · cases t with
          | nil => simp at ht
          | cons x t =>
            simp at ht
            subst ht
            rw [nlR_skip]
            exact i1
        · rw [nlR_10 t ht]
          intro x hx
          rw [List.mem_cons] at hx
          rcases hx with rfl | hx
          · decide
          · exact i1 x hx
      · rw [nlR_b b t hb]
        intro x hx
        rw [List.mem_cons] at hx
        rcases hx with rfl | hx
        · exact hb
        · exact i1 x hx
theorem nlR_same : ∀ l : List UInt8, (∀ x ∈ l, x ≠ 13) → nlR l = l
  | [], _ => rfl
  | b :: t, h => by rw [nlR_b b t (h b (by simp)), nlR_same t fun x hx => h x (by simp [hx])]
theorem nlR_len (n : Nat) : ∀ (l : List UInt8), l.length ≤ n → (nlR l).length ≤ l.length := by
  induction n with
  | zero =>
    intro l h
    have : l = [] := List.length_eq_zero_iff.1 (by omega)
    subst this
    simp [nlR]
  | succ n ih =>
    intro l h
    cases l with
    | nil => simp [nlR]
    | cons b t =>
      have i1 := ih t (by simp at h; omega)
      by_cases hb : b = 13
      · subst hb
        by_cases ht : t.head? = some 10
        · cases t with
          | nil => simp at ht
          | cons x t =>
            simp at ht
            subst ht
            rw [nlR_skip, List.length_cons]
            omega
        · rw [nlR_10 t ht, List.length_cons, List.length_cons]
          omega
      · rw [nlR_b b t hb, List.length_cons, List.length_cons]
        omega

theorem one_cell (w : World) (t : TypeId) (v : Value) : ∀ (j : Nat) (u : Value), [v][j]? = some u → (w.alloc (.cells #[v] t)).cell? ((⟨w.heap.size, 0, none⟩ : Addr).add j) = some u := by
  intro j u hj
  match j, hj with
  | 0, hj => simp at hj; subst hj; simp [Addr.add]
theorem one_one (x : Int) : ∀ u ∈ [Value.int .u8 x], u.oneCell' = true := by
  intro u hu
  simp at hu
  subst hu
  rfl

def nlS (s : ByteArray) : ByteArray := ⟨(nlR s.data.toList).toArray⟩

end Go.Proofs.YtheiehbfbgjgpabDoor
