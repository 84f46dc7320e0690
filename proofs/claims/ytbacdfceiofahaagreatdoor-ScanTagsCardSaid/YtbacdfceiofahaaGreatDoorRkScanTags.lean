/-
  'ScanTags': the closed facts of its row and its card, each a declaration of its own (what the kernel holds is freed at a declaration's end). No condition.
-/
import Derived.Test.YtbacdfceiofahaaGreatDoorCards
import Derived.JoinedOf
import Derived.SevenTiedAt
namespace Go.Proofs.YtbacdfceiofahaaGreatDoor
set_option maxRecDepth 100000

theorem scanTags_k2 : joinedFacts Tryz.pinned.checked.prog 4 Tryz.f4 Rows.scanTagsSpec Rows.scanTagsRow = true := by kernel_rfl
theorem scanTags_k1 : Tryz.pinned.checked.prog.funcNamed Rows.scanTagsRow.func = some 4 := by kernel_rfl
theorem scanTags_k9 : Tryz.prog.funcNamed "thicket/thicketlaw02.ScanTags" = some 4 := by kernel_rfl
theorem scanTags_k3 : Tryz.f4.isInstance Tryz.pinned.checked.prog Rows.scanTagsRow.origin Rows.scanTagsRow.targs := of_decide_eq_true (by kernel_rfl)
theorem scanTags_k4 : false = Tryz.pinned.checked.prog.looks [] := by kernel_rfl
theorem scanTags_k5 : false = Rows.scanTagsRow.goesBy Tryz.pinned.checked.prog := by kernel_rfl
theorem scanTags_k6 : Rows.scanTagsRow.wfByText (OpenSpec.ofChange Rows.scanTagsSpec) = true := by kernel_rfl
theorem scanTags_k7 : Tryz.pinned.checked.prog.mainIs = some (Rows.scanTagsCard.stood.harness.1, Rows.scanTagsCard.stood.harness.2.toList) := by kernel_rfl
theorem scanTags_k8 : ([9, 3, 4].all fun u => !Tryz.prog.wantsStandIn u) = true := by kernel_rfl
end Go.Proofs.YtbacdfceiofahaaGreatDoor
