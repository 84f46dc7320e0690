/-
  'ScanMarkup': the closed facts of its row and its card, each a declaration of its own (what the kernel holds is freed at a declaration's end). No condition.
-/
import Derived.Test.YtnfccckodgknjaaGreatDoorCards
import Derived.JoinedOf
import Derived.SevenTiedAt
namespace Go.Proofs.YtnfccckodgknjaaGreatDoor
set_option maxRecDepth 100000

theorem scanMarkup_k2 : joinedFacts Tryz.pinned.checked.prog 5 Tryz.f5 Rows.scanMarkupSpec Rows.scanMarkupRow = true := by kernel_rfl
theorem scanMarkup_k1 : Tryz.pinned.checked.prog.funcNamed Rows.scanMarkupRow.func = some 5 := by kernel_rfl
theorem scanMarkup_k9 : Tryz.prog.funcNamed "thicket/thicketlaw02.ScanMarkup" = some 5 := by kernel_rfl
theorem scanMarkup_k3 : Tryz.f5.isInstance Tryz.pinned.checked.prog Rows.scanMarkupRow.origin Rows.scanMarkupRow.targs := of_decide_eq_true (by kernel_rfl)
theorem scanMarkup_k4 : false = Tryz.pinned.checked.prog.looks [] := by kernel_rfl
theorem scanMarkup_k5 : false = Rows.scanMarkupRow.goesBy Tryz.pinned.checked.prog := by kernel_rfl
theorem scanMarkup_k6 : Rows.scanMarkupRow.wfByText (OpenSpec.ofChange Rows.scanMarkupSpec) = true := by kernel_rfl
theorem scanMarkup_k7 : Tryz.pinned.checked.prog.mainIs = some (Rows.scanMarkupCard.stood.harness.1, Rows.scanMarkupCard.stood.harness.2.toList) := by kernel_rfl
theorem scanMarkup_k8 : ([9, 3, 4].all fun u => !Tryz.prog.wantsStandIn u) = true := by kernel_rfl
end Go.Proofs.YtnfccckodgknjaaGreatDoor
