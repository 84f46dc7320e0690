/-
  'ScanLocal': the closed facts of its row and its card, each a declaration of its own (what the kernel holds is freed at a declaration's end). No condition.
-/
import Derived.Test.YtbacdfceiofahaaGreatDoorCards
import Derived.JoinedOf
import Derived.SevenTiedAt
namespace Go.Proofs.YtbacdfceiofahaaGreatDoor
set_option maxRecDepth 100000

theorem scanLocal_k2 : joinedFacts Tryz.pinned.checked.prog 6 Tryz.f6 Rows.scanLocalSpec Rows.scanLocalRow = true := by kernel_rfl
theorem scanLocal_k1 : Tryz.pinned.checked.prog.funcNamed Rows.scanLocalRow.func = some 6 := by kernel_rfl
theorem scanLocal_k9 : Tryz.prog.funcNamed "thicket/thicketlaw02.ScanLocal" = some 6 := by kernel_rfl
theorem scanLocal_k3 : Tryz.f6.isInstance Tryz.pinned.checked.prog Rows.scanLocalRow.origin Rows.scanLocalRow.targs := of_decide_eq_true (by kernel_rfl)
theorem scanLocal_k4 : false = Tryz.pinned.checked.prog.looks [] := by kernel_rfl
theorem scanLocal_k5 : false = Rows.scanLocalRow.goesBy Tryz.pinned.checked.prog := by kernel_rfl
theorem scanLocal_k6 : Rows.scanLocalRow.wfByText (OpenSpec.ofChange Rows.scanLocalSpec) = true := by kernel_rfl
theorem scanLocal_k7 : Tryz.pinned.checked.prog.mainIs = some (Rows.scanLocalCard.stood.harness.1, Rows.scanLocalCard.stood.harness.2.toList) := by kernel_rfl
theorem scanLocal_k8 : ([9, 9, 3, 9, 4].all fun u => !Tryz.prog.wantsStandIn u) = true := by kernel_rfl
end Go.Proofs.YtbacdfceiofahaaGreatDoor
