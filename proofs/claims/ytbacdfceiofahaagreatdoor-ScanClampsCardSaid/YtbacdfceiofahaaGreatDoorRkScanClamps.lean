/-
  'ScanClamps': the closed facts of its row and its card, each a declaration of its own (what the kernel holds is freed at a declaration's end). No condition.
-/
import Derived.Test.YtbacdfceiofahaaGreatDoorCards
import Derived.JoinedOf
import Derived.SevenTiedAt
namespace Go.Proofs.YtbacdfceiofahaaGreatDoor
set_option maxRecDepth 100000

theorem scanClamps_k2 : joinedFacts Tryz.pinned.checked.prog 7 Tryz.f7 Rows.scanClampsSpec Rows.scanClampsRow = true := by kernel_rfl
theorem scanClamps_k1 : Tryz.pinned.checked.prog.funcNamed Rows.scanClampsRow.func = some 7 := by kernel_rfl
theorem scanClamps_k9 : Tryz.prog.funcNamed "thicket/thicketlaw02.ScanClamps" = some 7 := by kernel_rfl
theorem scanClamps_k3 : Tryz.f7.isInstance Tryz.pinned.checked.prog Rows.scanClampsRow.origin Rows.scanClampsRow.targs := of_decide_eq_true (by kernel_rfl)
theorem scanClamps_k4 : false = Tryz.pinned.checked.prog.looks [] := by kernel_rfl
theorem scanClamps_k5 : false = Rows.scanClampsRow.goesBy Tryz.pinned.checked.prog := by kernel_rfl
theorem scanClamps_k6 : Rows.scanClampsRow.wfByText (OpenSpec.ofChange Rows.scanClampsSpec) = true := by kernel_rfl
theorem scanClamps_k7 : Tryz.pinned.checked.prog.mainIs = some (Rows.scanClampsCard.stood.harness.1, Rows.scanClampsCard.stood.harness.2.toList) := by kernel_rfl
theorem scanClamps_k8 : ([9, 3, 9, 4].all fun u => !Tryz.prog.wantsStandIn u) = true := by kernel_rfl
end Go.Proofs.YtbacdfceiofahaaGreatDoor
