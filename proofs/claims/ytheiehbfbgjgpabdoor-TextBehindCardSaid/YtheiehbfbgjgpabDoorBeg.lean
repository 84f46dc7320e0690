/-
  The document's own prefix test.
-/
import Derived.Test.YtheiehbfbgjgpabDoorKnw
import Derived.Test.YtheiehbfbgjgpabDoorRlo
namespace Go.Proofs.YtheiehbfbgjgpabDoor
open Go.RowKit Go.Lib
set_option maxHeartbeats 1000000
set_option maxRecDepth 100000

theorem pre_cut (s p : ByteArray) : ((s.extract 0 p.size).toList == p.toList) = p.data.toList.isPrefixOf s.data.toList := by
  rw [Bool.eq_iff_iff, List.isPrefixOf_iff_prefix, List.prefix_iff_eq_take, beq_iff_eq, ByteArray.toList_eq, ByteArray.toList_eq, Lib.extract_data, List.drop_zero, Nat.sub_zero, size_list]
  exact ⟨fun h => h.symm, fun h => h.symm⟩
theorem pre_long {s p : ByteArray} (h : ¬ p.size ≤ s.size) : p.data.toList.isPrefixOf s.data.toList = false := by
  rw [Bool.eq_false_iff]
  intro e
  have := (List.isPrefixOf_iff_prefix.1 e).length_le
  rw [size_list, size_list] at this
  exact h this

theorem rBegins1 (s p : ByteArray) (w : World) :
    Calls Tryd.prog 47 #[.string s, .string p] w fun e w' => e = .returned (.bool (p.data.toList.isPrefixOf s.data.toList)) ∧ w' = w := by
  by_cases hl : p.size ≤ s.size
  · have hI : (p.size : Int) ≤ (s.size : Int) := by omega
    have HE := Lib.hid (pre_cut s p)
    go_enter Tryd.func47, Tryd.ntmps47
    go_wp2
    go_ret
    exact ⟨ret_bool HE.out, rfl⟩
  · have hI : (s.size : Int) < (p.size : Int) := by omega
    have HE := Lib.hid (pre_long hl)
    go_enter Tryd.func47, Tryd.ntmps47
    go_wp2
    go_ret
    exact ⟨ret_bool HE.out.symm, rfl⟩
end Go.Proofs.YtheiehbfbgjgpabDoor
