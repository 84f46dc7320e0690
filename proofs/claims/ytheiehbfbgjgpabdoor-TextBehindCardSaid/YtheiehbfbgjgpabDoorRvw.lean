/-
  The document's own reading of validity.
-/
import Derived.Test.YtheiehbfbgjgpabDoorRvk
namespace Go.Proofs.YtheiehbfbgjgpabDoor
open Go.RowKit
set_option maxHeartbeats 1000000
set_option maxRecDepth 100000

theorem wantZ_bd (b : Int) : 0 ≤ wantZ b ∧ wantZ b ≤ 4 := by
  unfold wantZ
  (repeat' split) <;> omega
def okV (l : List UInt8) : Bool := (piecesL l).all fun q => q.2
theorem okV_cons (b : UInt8) (t : List UInt8) : okV (b :: t) = ((measTab encT b t).2 && okV ((b :: t).drop (measTab encT b t).1)) := by
  unfold okV
  rw [piecesL_cons, List.all_cons]
theorem okV_bad (b : UInt8) (t : List UInt8) (h : (wantZ (b.toNat : Int) = 0 ∨ 1 + (t.length : Int) < wantZ (b.toNat : Int)) ∨ contB (b.toNat : Int) (t.take ((wantZ (b.toNat : Int)).toNat - 1)) 1 = false) : okV (b :: t) = false := by
  rw [okV_cons, (first_whole b t).1]
  rcases h with (h | h) | h
  · simp [h]
  · have : decide (wantZ (b.toNat : Int) ≤ 1 + (t.length : Int)) = false := by simp; omega
    simp [this]
  · simp [h]
theorem okV_good (b : UInt8) (t : List UInt8) (n : Nat) (hn : wantZ (b.toNat : Int) = (n : Int)) (h0 : ¬ n = 0) (h1 : n ≤ 1 + t.length) (hc : contB (b.toNat : Int) (t.take (n - 1)) 1 = true) : okV (b :: t) = okV ((b :: t).drop n) := by
  have h := first_whole b t
  have h2 : (measTab encT b t).2 = true := by
    rw [h.1, hn, Int.toNat_natCast, hc]
    simp
    omega
  have h3 := h.2 h2
  rw [hn] at h3
  have h4 : (measTab encT b t).1 = n := by omega
  rw [okV_cons, h2, h4, Bool.true_and]

end Go.Proofs.YtheiehbfbgjgpabDoor
