/-
  Letters and digits together; the space test, through strings.ContainsRune at whatever rune over an ASCII string.
-/
import Derived.Test.YtheiehbfbgjgpabDoorCls
namespace Go.Proofs.YtheiehbfbgjgpabDoor
open Go.RowKit
set_option maxHeartbeats 1000000

theorem isAlnum (r : Int) (w : World) : Calls Tryd.prog 69 #[.int .i32 r] w fun e w' => e = .returned (.bool (alnB r)) ∧ Below w.heap.size w w' := by
  go_enter Tryd.func69, Tryd.ntmps69
  go_wp2
  refine wp_loop_rounds 3 ?_
  iterate 3
    all_goals try (rw [rounds_succ]; go_wp2_with (first | (go_at_call 65; refine (isLetter _ _).mono ?_; rintro e w' ⟨rfl, hb⟩; obtain ⟨hc, hf⟩ := bcell hb) | (go_at_call 58; refine (isDigit _ _).mono ?_; rintro e w' ⟨rfl, hb2⟩; obtain ⟨hc2, hf2⟩ := bcell hb2) | go_in))
  all_goals go_ret
  · have h1 : letB r = true := by assumption
    exact ⟨ret_bool (by simp only [alnB, h1, Bool.true_or]), by (repeat' (first | (with_reducible exact Below.refl _ _) | (with_reducible assumption) | (with_reducible refine below_alloc ?_ _) | (with_reducible refine Below.drew ?_) | (with_reducible refine below_drewN ?_ _) | (with_reducible refine Below.setCell ?_ ?_ _) | go_size | (refine below_next ?_ (by assumption))))⟩
  · have h1 : letB r = false := by assumption
    have h2 : digB r = true := by assumption
    exact ⟨ret_bool (by simp only [alnB, h1, h2, Bool.or_true]), by (repeat' (first | (with_reducible exact Below.refl _ _) | (with_reducible assumption) | (with_reducible refine below_alloc ?_ _) | (with_reducible refine Below.drew ?_) | (with_reducible refine below_drewN ?_ _) | (with_reducible refine Below.setCell ?_ ?_ _) | go_size | (refine below_next ?_ (by assumption))))⟩
  · have h1 : letB r = false := by assumption
    have h2 : digB r = false := by assumption
    exact ⟨ret_bool (by simp only [alnB, h1, h2, Bool.or_false]), by (repeat' (first | (with_reducible exact Below.refl _ _) | (with_reducible assumption) | (with_reducible refine below_alloc ?_ _) | (with_reducible refine Below.drew ?_) | (with_reducible refine below_drewN ?_ _) | (with_reducible refine Below.setCell ?_ ?_ _) | go_size | (refine below_next ?_ (by assumption))))⟩
end Go.Proofs.YtheiehbfbgjgpabDoor
