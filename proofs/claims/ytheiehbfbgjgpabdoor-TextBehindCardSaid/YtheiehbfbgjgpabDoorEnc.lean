/-
  encodings: the table, as it is laid.
-/
import Derived.Test.YtheiehbfbgjgpabDoorMea
namespace Go.Proofs.YtheiehbfbgjgpabDoor
open Go.RowKit
set_option maxHeartbeats 2000000
set_option maxRecDepth 100000

theorem nine {k : Nat} (h : k < 9) : k = 0 ∨ k = 1 ∨ k = 2 ∨ k = 3 ∨ k = 4 ∨ k = 5 ∨ k = 6 ∨ k = 7 ∨ k = 8 := by omega

theorem row_new (w : World) (c : Array Value) (t : TypeId) (k : Nat) (h : k = w.heap.size) : RowOf (w.alloc (.cells c t)) k t :=
  ⟨c, (0, 0), by subst h; show (w.heap.push _)[w.heap.size]? = _; simp⟩
theorem row_old (w : World) (o : Obj) (k : Nat) {t : TypeId} (hk : k < w.heap.size) (h : RowOf w k t) : RowOf (w.alloc o) k t := by
  obtain ⟨c, fz, hc⟩ := h
  exact ⟨c, fz, (Below.heap_alloc w o k hk).trans hc⟩

theorem encodings (w : World) :
    Calls Tryd.prog 73 #[] w fun e w' => ∃ T, e = .returned (.slice (some ⟨T, 0, none⟩) 9 9) ∧ TabW w.heap.size w' T ∧ Below w.heap.size w w' := by
  go_enter Tryd.func73, Tryd.ntmps73
  go_wp2_with fail
  go_ret
  refine ⟨_, rfl, ?_, by (repeat' (first | (with_reducible exact Below.refl _ _) | (with_reducible assumption) | (with_reducible refine below_alloc ?_ _) | (with_reducible refine Below.drew ?_) | (with_reducible refine below_drewN ?_ _) | (with_reducible refine Below.setCell ?_ ?_ _) | go_size | (refine below_next ?_ (by assumption))))⟩
  refine ⟨fun k hk => ?_, fun k hk => ?_, fun k hk => ?_, by omega, row_new _ _ _ _ (by simp)⟩
  · rcases nine hk with rfl | rfl | rfl | rfl | rfl | rfl | rfl | rfl | rfl <;> simp [go_sem, tLo, encT]
  · rcases nine hk with rfl | rfl | rfl | rfl | rfl | rfl | rfl | rfl | rfl <;> simp [go_sem, tHi, encT]
  · rcases nine hk with rfl | rfl | rfl | rfl | rfl | rfl | rfl | rfl | rfl
    · exact ⟨none, by simp [go_sem, tRest, encT], fun j hj => absurd hj (by simp [tRest, encT])⟩
    · refine ⟨_, by simp [go_sem, tRest, encT]; rfl, fun j hj => ⟨_, rfl, ?_⟩⟩
      have : j = 0 := by simp [tRest, encT] at hj; omega
      subst this
      exact ⟨by simp [go_sem, tRest, encT], by simp [go_sem, tRest, encT], by omega, (by repeat' (first | (refine row_new _ _ _ _ ?_; simp; done) | (refine row_old _ _ _ ?_ ?_; focus (simp <;> omega))))⟩
    · refine ⟨_, by simp [go_sem, tRest, encT]; rfl, fun j hj => ⟨_, rfl, ?_⟩⟩
      have : j = 0 ∨ j = 1 := by simp [tRest, encT] at hj; omega
      rcases this with rfl | rfl <;> exact ⟨by simp [go_sem, tRest, encT], by simp [go_sem, tRest, encT], by omega, (by repeat' (first | (refine row_new _ _ _ _ ?_; simp; done) | (refine row_old _ _ _ ?_ ?_; focus (simp <;> omega))))⟩
    · refine ⟨_, by simp [go_sem, tRest, encT]; rfl, fun j hj => ⟨_, rfl, ?_⟩⟩
      have : j = 0 ∨ j = 1 := by simp [tRest, encT] at hj; omega
      rcases this with rfl | rfl <;> exact ⟨by simp [go_sem, tRest, encT], by simp [go_sem, tRest, encT], by omega, (by repeat' (first | (refine row_new _ _ _ _ ?_; simp; done) | (refine row_old _ _ _ ?_ ?_; focus (simp <;> omega))))⟩
    · refine ⟨_, by simp [go_sem, tRest, encT]; rfl, fun j hj => ⟨_, rfl, ?_⟩⟩
      have : j = 0 ∨ j = 1 := by simp [tRest, encT] at hj; omega
      rcases this with rfl | rfl <;> exact ⟨by simp [go_sem, tRest, encT], by simp [go_sem, tRest, encT], by omega, (by repeat' (first | (refine row_new _ _ _ _ ?_; simp; done) | (refine row_old _ _ _ ?_ ?_; focus (simp <;> omega))))⟩
    · refine ⟨_, by simp [go_sem, tRest, encT]; rfl, fun j hj => ⟨_, rfl, ?_⟩⟩
      have : j = 0 ∨ j = 1 := by simp [tRest, encT] at hj; omega
      rcases this with rfl | rfl <;> exact ⟨by simp [go_sem, tRest, encT], by simp [go_sem, tRest, encT], by omega, (by repeat' (first | (refine row_new _ _ _ _ ?_; simp; done) | (refine row_old _ _ _ ?_ ?_; focus (simp <;> omega))))⟩
    · refine ⟨_, by simp [go_sem, tRest, encT]; rfl, fun j hj => ⟨_, rfl, ?_⟩⟩
      have : j = 0 ∨ j = 1 ∨ j = 2 := by simp [tRest, encT] at hj; omega
      rcases this with rfl | rfl | rfl <;> exact ⟨by simp [go_sem, tRest, encT], by simp [go_sem, tRest, encT], by omega, (by repeat' (first | (refine row_new _ _ _ _ ?_; simp; done) | (refine row_old _ _ _ ?_ ?_; focus (simp <;> omega))))⟩
    · refine ⟨_, by simp [go_sem, tRest, encT]; rfl, fun j hj => ⟨_, rfl, ?_⟩⟩
      have : j = 0 ∨ j = 1 ∨ j = 2 := by simp [tRest, encT] at hj; omega
      rcases this with rfl | rfl | rfl <;> exact ⟨by simp [go_sem, tRest, encT], by simp [go_sem, tRest, encT], by omega, (by repeat' (first | (refine row_new _ _ _ _ ?_; simp; done) | (refine row_old _ _ _ ?_ ?_; focus (simp <;> omega))))⟩
    · refine ⟨_, by simp [go_sem, tRest, encT]; rfl, fun j hj => ⟨_, rfl, ?_⟩⟩
      have : j = 0 ∨ j = 1 ∨ j = 2 := by simp [tRest, encT] at hj; omega
      rcases this with rfl | rfl | rfl <;> exact ⟨by simp [go_sem, tRest, encT], by simp [go_sem, tRest, encT], by omega, (by repeat' (first | (refine row_new _ _ _ _ ?_; simp; done) | (refine row_old _ _ _ ?_ ?_; focus (simp <;> omega))))⟩
end Go.Proofs.YtheiehbfbgjgpabDoor
