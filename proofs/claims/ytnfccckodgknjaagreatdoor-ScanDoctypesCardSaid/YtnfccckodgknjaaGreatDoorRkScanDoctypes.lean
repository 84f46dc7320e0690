/-
  'ScanDoctypes': the closed facts of its row and its card, each a declaration of its own (what the kernel holds is freed at a declaration's end). No condition.
-/
import Derived.Test.YtnfccckodgknjaaGreatDoorCards
import Derived.JoinedOf
import Derived.SevenTiedAt
namespace Go.Proofs.YtnfccckodgknjaaGreatDoor
set_option maxRecDepth 100000

theorem scanDoctypes_k2 : joinedFacts Tryz.pinned.checked.prog 4 Tryz.f4 Rows.scanDoctypesSpec Rows.scanDoctypesRow = true := by kernel_rfl
theorem scanDoctypes_k1 : Tryz.pinned.checked.prog.funcNamed Rows.scanDoctypesRow.func = some 4 := by kernel_rfl
theorem scanDoctypes_k9 : Tryz.prog.funcNamed "thicket/thicketlaw02.ScanDoctypes" = some 4 := by kernel_rfl
theorem scanDoctypes_k3 : Tryz.f4.isInstance Tryz.pinned.checked.prog Rows.scanDoctypesRow.origin Rows.scanDoctypesRow.targs := of_decide_eq_true (by kernel_rfl)
theorem scanDoctypes_k4 : false = Tryz.pinned.checked.prog.looks [] := by kernel_rfl
theorem scanDoctypes_k5 : false = Rows.scanDoctypesRow.goesBy Tryz.pinned.checked.prog := by kernel_rfl
theorem scanDoctypes_k6 : Rows.scanDoctypesRow.wfByText (OpenSpec.ofChange Rows.scanDoctypesSpec) = true := by kernel_rfl
theorem scanDoctypes_k7 : Tryz.pinned.checked.prog.mainIs = some (Rows.scanDoctypesCard.stood.harness.1, Rows.scanDoctypesCard.stood.harness.2.toList) := by kernel_rfl
theorem scanDoctypes_k8 : ([9, 3].all fun u => !Tryz.prog.wantsStandIn u) = true := by kernel_rfl
end Go.Proofs.YtnfccckodgknjaaGreatDoor
