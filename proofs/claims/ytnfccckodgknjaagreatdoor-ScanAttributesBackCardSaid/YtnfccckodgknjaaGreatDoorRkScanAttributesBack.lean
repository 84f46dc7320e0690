/-
  'ScanAttributesBack': the closed facts of its row and its card, each a declaration of its own (what the kernel holds is freed at a declaration's end). No condition.
-/
import Derived.Test.YtnfccckodgknjaaGreatDoorCards
import Derived.JoinedOf
import Derived.SevenTiedAt
namespace Go.Proofs.YtnfccckodgknjaaGreatDoor
set_option maxRecDepth 100000

theorem scanAttributesBack_k2 : joinedFacts Tryz.pinned.checked.prog 3 Tryz.f3 Rows.scanAttributesBackSpec Rows.scanAttributesBackRow = true := by kernel_rfl
theorem scanAttributesBack_k1 : Tryz.pinned.checked.prog.funcNamed Rows.scanAttributesBackRow.func = some 3 := by kernel_rfl
theorem scanAttributesBack_k9 : Tryz.prog.funcNamed "thicket/thicketlaw02.ScanAttributesBack" = some 3 := by kernel_rfl
theorem scanAttributesBack_k3 : Tryz.f3.isInstance Tryz.pinned.checked.prog Rows.scanAttributesBackRow.origin Rows.scanAttributesBackRow.targs := of_decide_eq_true (by kernel_rfl)
theorem scanAttributesBack_k4 : false = Tryz.pinned.checked.prog.looks [] := by kernel_rfl
theorem scanAttributesBack_k5 : false = Rows.scanAttributesBackRow.goesBy Tryz.pinned.checked.prog := by kernel_rfl
theorem scanAttributesBack_k6 : Rows.scanAttributesBackRow.wfByText (OpenSpec.ofChange Rows.scanAttributesBackSpec) = true := by kernel_rfl
theorem scanAttributesBack_k7 : Tryz.pinned.checked.prog.mainIs = some (Rows.scanAttributesBackCard.stood.harness.1, Rows.scanAttributesBackCard.stood.harness.2.toList) := by kernel_rfl
theorem scanAttributesBack_k8 : ([22, 22, 4, 9].all fun u => !Tryz.prog.wantsStandIn u) = true := by kernel_rfl
end Go.Proofs.YtnfccckodgknjaaGreatDoor
