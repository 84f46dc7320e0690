/-
  The table of the encodings, and what its rows say. No program in sight.
-/
import Derived.Test.YtheiehbfbgjgpabDoorKit
namespace Go.Proofs.YtheiehbfbgjgpabDoor
open Go.RowKit

def encT : List (Int × Int × List (Int × Int)) :=
  [(0, 127, []), (194, 223, [(128, 191)]), (224, 224, [(160, 191), (128, 191)]), (225, 236, [(128, 191), (128, 191)]), (237, 237, [(128, 159), (128, 191)]), (238, 239, [(128, 191), (128, 191)]),
   (240, 240, [(144, 191), (128, 191), (128, 191)]), (241, 243, [(128, 191), (128, 191), (128, 191)]), (244, 244, [(128, 143), (128, 191), (128, 191)])]
def tLo (k : Nat) : Int := (encT.getD k (0, 0, [])).1
def tHi (k : Nat) : Int := (encT.getD k (0, 0, [])).2.1
def tRest (k : Nat) : List (Int × Int) := (encT.getD k (0, 0, [])).2.2

def inB (lo hi b : Int) : Bool := decide (lo ≤ b) && decide (b ≤ hi)

def measRest : List (Int × Int) → List UInt8 → Nat → Nat × Bool
  | [], _, n => (n, true)
  | _ :: _, [], n => (n, false)
  | (lo, hi) :: rs, b :: t, n => if inB lo hi b.toNat then measRest rs t (n + 1) else (n, false)

def measTab : List (Int × Int × List (Int × Int)) → UInt8 → List UInt8 → Nat × Bool
  | [], _, _ => (1, false)
  | (lo, hi, rs) :: es, b, t => if inB lo hi b.toNat then measRest rs t 1 else measTab es b t

/-- Block k is a row of type t. -/
def RowOf (w : World) (k : Nat) (t : TypeId) : Prop := ∃ c fz, w.heap[k]? = some (.cells c t fz)

/-- The table lies in block T; it and its rows are blocks from n on. -/
structure TabW (n : Nat) (w : World) (T : Nat) : Prop where
  lo : ∀ k, k < 9 → w.cell? ⟨T, k * 3, none⟩ = some (.int .u8 (tLo k))
  hi : ∀ k, k < 9 → w.cell? ⟨T, k * 3 + 1, none⟩ = some (.int .u8 (tHi k))
  rs : ∀ k, k < 9 → ∃ a, w.cell? ⟨T, k * 3 + 2, none⟩ = some (.slice a (tRest k).length (tRest k).length) ∧
    ∀ j, j < (tRest k).length → ∃ R, a = some ⟨R, 0, none⟩ ∧ w.cell? ⟨R, j * 2, none⟩ = some (.int .u8 ((tRest k).getD j (0, 0)).1) ∧ w.cell? ⟨R, j * 2 + 1, none⟩ = some (.int .u8 ((tRest k).getD j (0, 0)).2) ∧ n ≤ R ∧ RowOf w R 107
  at_ : n ≤ T
  row : RowOf w T 110

/-- Every block of cells but B, and but rows of bytes, stands as it stood. -/
structure CellsKept (B : Nat) (w w' : World) : Prop where
  size : w.heap.size ≤ w'.heap.size
  same : ∀ (k : Nat) (c : Array Value) (t : TypeId) (fz : Nat × Nat), w.heap[k]? = some (.cells c t fz) → k ≠ B → t ≠ 5 → w'.heap[k]? = some (.cells c t fz)

theorem CellsKept.refl (B : Nat) (w : World) : CellsKept B w w := ⟨Nat.le_refl _, fun _ _ _ _ h _ _ => h⟩
theorem CellsKept.trans {B : Nat} {a b c : World} (h : CellsKept B a b) (k : CellsKept B b c) : CellsKept B a c :=
  ⟨Nat.le_trans h.size k.size, fun i x t fz hi hb ht => k.same i x t fz (h.same i x t fz hi hb ht) hb ht⟩
theorem CellsKept.below {B : Nat} {w w' : World} (h : Below w.heap.size w w') : CellsKept B w w' :=
  ⟨h.size, fun k _ _ _ hk _ _ => (h.block k (Array.getElem?_eq_some_iff.1 hk).1).trans hk⟩
theorem CellsKept.cell {B : Nat} {w w' : World} (h : CellsKept B w w') {k : Nat} {t : TypeId} (hr : RowOf w k t) (ht : t ≠ 5) (hk : k ≠ B) (o : Nat) : w'.cell? ⟨k, o, none⟩ = w.cell? ⟨k, o, none⟩ := by
  obtain ⟨c, fz, hc⟩ := hr
  have h1 := h.same k c t fz hc hk ht
  exact World.cell?_of_block (w := w) (a := ⟨k, o, none⟩) (h1.trans hc.symm)
theorem CellsKept.row {B : Nat} {w w' : World} (h : CellsKept B w w') {k : Nat} {t : TypeId} (hr : RowOf w k t) (ht : t ≠ 5) (hk : k ≠ B) : RowOf w' k t := by
  obtain ⟨c, fz, hc⟩ := hr
  exact ⟨c, fz, h.same k c t fz hc hk ht⟩
theorem RowOf.kept {w w' : World} {k : Nat} {t : TypeId} (h : RowOf w k t) (hb : Below w.heap.size w w') : RowOf w' k t := by
  obtain ⟨c, fz, hc⟩ := h
  exact ⟨c, fz, (hb.block k (Array.getElem?_eq_some_iff.1 hc).1).trans hc⟩

theorem TabW.kept {n : Nat} {w w' : World} {T : Nat} (h : TabW n w T) (hb : Below w.heap.size w w') : TabW n w' T := by
  have key : ∀ {a : Addr} {v : Value}, w.cell? a = some v → w'.cell? a = some v := fun {a v} hc => (hb.cell (World.block_lt_of_cell? _ _ hc)).trans hc
  refine ⟨fun k hk => key (h.lo k hk), fun k hk => key (h.hi k hk), fun k hk => ?_, h.at_, h.row.kept hb⟩
  obtain ⟨a, h1, h2⟩ := h.rs k hk
  refine ⟨a, key h1, fun j hj => ?_⟩
  obtain ⟨R, h3, h4, h5, h6, h7⟩ := h2 j hj
  exact ⟨R, h3, key h4, key h5, h6, h7.kept hb⟩

theorem TabW.cells {n : Nat} {w w' : World} {T B : Nat} (h : TabW n w T) (hB : B < n) (hc : CellsKept B w w') : TabW n w' T := by
  have hT : T ≠ B := by have := h.at_; omega
  refine ⟨fun k hk => ?_, fun k hk => ?_, fun k hk => ?_, h.at_, hc.row h.row (by decide) hT⟩
  · rw [hc.cell h.row (by decide) hT]; exact h.lo k hk
  · rw [hc.cell h.row (by decide) hT]; exact h.hi k hk
  · obtain ⟨a, h1, h2⟩ := h.rs k hk
    refine ⟨a, by rw [hc.cell h.row (by decide) hT]; exact h1, fun j hj => ?_⟩
    obtain ⟨R, h3, h4, h5, h6, h7⟩ := h2 j hj
    have hR : R ≠ B := by omega
    exact ⟨R, h3, by rw [hc.cell h7 (by decide) hR]; exact h4, by rw [hc.cell h7 (by decide) hR]; exact h5, h6, hc.row h7 (by decide) hR⟩

theorem tLo_bd (k : Nat) (hk : k < 9) : 0 ≤ tLo k ∧ tLo k ≤ 255 ∧ 0 ≤ tHi k ∧ tHi k ≤ 255 ∧ (tRest k).length ≤ 3 := by
  have key : ∀ k : Fin 9, 0 ≤ tLo k ∧ tLo k ≤ 255 ∧ 0 ≤ tHi k ∧ tHi k ≤ 255 ∧ (tRest k).length ≤ 3 := by decide
  exact key ⟨k, hk⟩

theorem drop_enc (k : Nat) (hk : k < 9) : encT.drop k = (tLo k, tHi k, tRest k) :: encT.drop (k + 1) := by
  have key : ∀ k : Fin 9, encT.drop k = (tLo k, tHi k, tRest k) :: encT.drop (k + 1) := by decide
  exact key ⟨k, hk⟩

theorem measRest_end (R : List (Int × Int)) (j n : Nat) (hj : j < R.length) : measRest (R.drop j) [] n = (n, false) := by
  rw [List.drop_eq_getElem_cons hj]; rfl
theorem measRest_done (R : List (Int × Int)) (j n : Nat) (l : List UInt8) (hj : ¬ j < R.length) : measRest (R.drop j) l n = (n, true) := by
  rw [List.drop_eq_nil_of_le (by omega)]; cases l <;> rfl
theorem measRest_no (R : List (Int × Int)) (j n : Nat) (hj : j < R.length) (b : UInt8) (t : List UInt8) (h : inB (R.getD j (0, 0)).1 (R.getD j (0, 0)).2 b.toNat = false) : measRest (R.drop j) (b :: t) n = (n, false) := by
  have e : R.getD j (0, 0) = R[j] := by simp [List.getD, hj]
  rw [e] at h
  rw [List.drop_eq_getElem_cons hj]
  show measRest ((R[j].1, R[j].2) :: _) (b :: t) n = _
  unfold measRest
  rw [h, if_neg (by simp)]
theorem measRest_yes (R : List (Int × Int)) (j n : Nat) (hj : j < R.length) (b : UInt8) (t : List UInt8) (h : inB (R.getD j (0, 0)).1 (R.getD j (0, 0)).2 b.toNat = true) : measRest (R.drop j) (b :: t) n = measRest (R.drop (j + 1)) t (n + 1) := by
  have e : R.getD j (0, 0) = R[j] := by simp [List.getD, hj]
  rw [e] at h
  rw [List.drop_eq_getElem_cons hj]
  show measRest ((R[j].1, R[j].2) :: _) (b :: t) n = _
  rw [measRest, h, if_pos rfl]
theorem drop_byte (s : ByteArray) (j : Nat) (h : j < s.size) : s.data.toList.drop j = s[j] :: s.data.toList.drop (j + 1) := by
  rw [List.drop_eq_getElem_cons (by simpa using h)]; rfl
theorem drop_end (s : ByteArray) (j : Nat) (h : s.size ≤ j) : s.data.toList.drop j = [] := List.drop_eq_nil_of_le (by rw [Array.length_toList]; exact h)
end Go.Proofs.YtheiehbfbgjgpabDoor
