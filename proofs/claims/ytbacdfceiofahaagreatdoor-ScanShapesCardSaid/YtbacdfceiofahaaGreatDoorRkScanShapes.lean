/-
  'ScanShapes': the closed facts of its row and its card, each a declaration of its own (what the kernel holds is freed at a declaration's end). No condition.
-/
import Derived.Test.YtbacdfceiofahaaGreatDoorCards
import Derived.JoinedOf
import Derived.SevenTiedAt
namespace Go.Proofs.YtbacdfceiofahaaGreatDoor
set_option maxRecDepth 100000

theorem scanShapes_k2 : joinedFacts Tryz.pinned.checked.prog 9 Tryz.f9 Rows.scanShapesSpec Rows.scanShapesRow = true := by kernel_rfl
theorem scanShapes_k1 : Tryz.pinned.checked.prog.funcNamed Rows.scanShapesRow.func = some 9 := by kernel_rfl
theorem scanShapes_k9 : Tryz.prog.funcNamed "thicket/thicketlaw02.ScanShapes" = some 9 := by kernel_rfl
theorem scanShapes_k3 : Tryz.f9.isInstance Tryz.pinned.checked.prog Rows.scanShapesRow.origin Rows.scanShapesRow.targs := of_decide_eq_true (by kernel_rfl)
theorem scanShapes_k4 : false = Tryz.pinned.checked.prog.looks [] := by kernel_rfl
theorem scanShapes_k5 : false = Rows.scanShapesRow.goesBy Tryz.pinned.checked.prog := by kernel_rfl
theorem scanShapes_k6 : Rows.scanShapesRow.wfByText (OpenSpec.ofChange Rows.scanShapesSpec) = true := by kernel_rfl
theorem scanShapes_k7 : Tryz.pinned.checked.prog.mainIs = some (Rows.scanShapesCard.stood.harness.1, Rows.scanShapesCard.stood.harness.2.toList) := by kernel_rfl
theorem scanShapes_k8 : ([9, 3, 4].all fun u => !Tryz.prog.wantsStandIn u) = true := by kernel_rfl
end Go.Proofs.YtbacdfceiofahaaGreatDoor
