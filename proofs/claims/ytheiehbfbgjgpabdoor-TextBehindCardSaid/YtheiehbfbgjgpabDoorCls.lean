/-
  The classes of characters of layer 1: what each exported test returns, for every rune.
-/
import Derived.Test.YtheiehbfbgjgpabDoorProg
import Derived.Test.YtheiehbfbgjgpabDoorSp
import Derived.Test.YtheiehbfbgjgpabDoorKit
namespace Go.Proofs.YtheiehbfbgjgpabDoor
open Go.RowKit
set_option maxHeartbeats 1000000

theorem isUpper (r : Int) (w : World) : Calls Tryd.prog 83 #[.int .i32 r] w fun e w' => e = .returned (.bool (upB r)) ∧ Below w.heap.size w w' := by
  go_enter Tryd.func83, Tryd.ntmps83
  go_wp2
  all_goals go_ret
  all_goals refine ⟨?_, by go_grown⟩
  all_goals (first | (simp [upB, *]; done) | (simp [upB, *]; omega))

theorem isDigit (r : Int) (w : World) : Calls Tryd.prog 58 #[.int .i32 r] w fun e w' => e = .returned (.bool (digB r)) ∧ Below w.heap.size w w' := by
  go_enter Tryd.func58, Tryd.ntmps58
  go_wp2
  all_goals go_ret
  all_goals refine ⟨?_, by go_grown⟩
  all_goals (first | (simp [digB, *]; done) | (simp [digB, *]; omega))

theorem isLetter (r : Int) (w : World) : Calls Tryd.prog 65 #[.int .i32 r] w fun e w' => e = .returned (.bool (letB r)) ∧ Below w.heap.size w w' := by
  go_enter Tryd.func65, Tryd.ntmps65
  go_wp2
  go_rounds 3
  all_goals go_ret
  all_goals refine ⟨?_, by go_grown⟩
  all_goals (first | (simp [letB, *]; done) | (simp [letB, *]; omega))

theorem isHex (r : Int) (w : World) : Calls Tryd.prog 57 #[.int .i32 r] w fun e w' => e = .returned (.bool (hexB r)) ∧ Below w.heap.size w w' := by
  go_enter Tryd.func57, Tryd.ntmps57
  go_wp2
  go_rounds 4
  all_goals go_ret
  all_goals refine ⟨?_, by go_grown⟩
  all_goals (first | (simp [hexB, *]; done) | (simp [hexB, *]; omega))

end Go.Proofs.YtheiehbfbgjgpabDoor
