/-
  The classes of characters of layer 1: what each exported test returns, for every rune.
-/
import Derived.Test.YtdphkjhfeobhaaaDoorProg
import Derived.Test.YtdphkjhfeobhaaaDoorSp
import Derived.Test.YtdphkjhfeobhaaaDoorKit
namespace Go.Proofs.YtdphkjhfeobhaaaDoor
open Go.RowKit
set_option maxHeartbeats 1000000

theorem isUpper (r : Int) (w : World) : Calls Tryd.prog 38 #[.int .i32 r] w fun e w' => e = .returned (.bool (upB r)) ∧ Below w.heap.size w w' := by
  go_enter Tryd.func38, Tryd.ntmps38
  go_wp2
  all_goals go_ret
  all_goals refine ⟨?_, by go_grown⟩
  all_goals (first | (simp [upB, *]; done) | (simp [upB, *]; omega))

theorem isDigit (r : Int) (w : World) : Calls Tryd.prog 42 #[.int .i32 r] w fun e w' => e = .returned (.bool (digB r)) ∧ Below w.heap.size w w' := by
  go_enter Tryd.func42, Tryd.ntmps42
  go_wp2
  all_goals go_ret
  all_goals refine ⟨?_, by go_grown⟩
  all_goals (first | (simp [digB, *]; done) | (simp [digB, *]; omega))

theorem isLetter (r : Int) (w : World) : Calls Tryd.prog 40 #[.int .i32 r] w fun e w' => e = .returned (.bool (letB r)) ∧ Below w.heap.size w w' := by
  go_enter Tryd.func40, Tryd.ntmps40
  go_wp2
  go_rounds 3
  all_goals go_ret
  all_goals refine ⟨?_, by go_grown⟩
  all_goals (first | (simp [letB, *]; done) | (simp [letB, *]; omega))

theorem isHex (r : Int) (w : World) : Calls Tryd.prog 44 #[.int .i32 r] w fun e w' => e = .returned (.bool (hexB r)) ∧ Below w.heap.size w w' := by
  go_enter Tryd.func44, Tryd.ntmps44
  go_wp2
  go_rounds 4
  all_goals go_ret
  all_goals refine ⟨?_, by go_grown⟩
  all_goals (first | (simp [hexB, *]; done) | (simp [hexB, *]; omega))

end Go.Proofs.YtdphkjhfeobhaaaDoor
