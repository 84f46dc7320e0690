/-
  TextNewlines: the walk.
-/
import Derived.Test.YtdphkjhfeobhaaaDoorRnl
namespace Go.Proofs.YtdphkjhfeobhaaaDoor
open Go.RowKit
set_option maxHeartbeats 1000000
set_option maxRecDepth 100000

theorem nlS_list (s : ByteArray) : (nlS s).data.toList = nlR s.data.toList := by simp [nlS]
theorem nlS_size (s : ByteArray) : (nlS s).size ≤ s.size := by
  have h := nlR_len _ s.data.toList (Nat.le_refl _)
  rw [← nlS_list, size_list, size_list] at h
  exact h
theorem nlS_nlS (s : ByteArray) : nlS (nlS s) = nlS s := by
  apply list_bytes
  rw [nlS_list, nlS_list]
  exact nlR_same _ (nlR_no _ _ (Nat.le_refl _))
theorem nlS_no (s : ByteArray) : allB (fun b => !(b == 13)) (nlS s) = true := by
  unfold allB
  rw [nlS_list, List.all_eq_true]
  intro x hx
  have := nlR_no _ _ (Nat.le_refl _) x hx
  simp only [Bool.not_eq_true']
  rw [beq_eq_false_iff_ne]
  intro e
  exact this (UInt8.toNat_inj.mp (by show _ = 13; omega))
theorem newlinesS (s : ByteArray) (m : Int) (hs : s.size ≤ 400000) (w : World) (hm : Ml m w) :
    Calls Tryd.prog 31 #[.string s] w fun e w' => e = .returned (.string (nlS s)) ∧ Below w.heap.size w w' := by
  refine (newlines s m hs w hm).mono ?_
  rintro e w' ⟨S, hS, rfl, hb⟩
  have : S = nlS s := list_bytes _ _ (by rw [hS, nlS_list, newL_nlR _ _ (Nat.le_refl _)])
  rw [this]
  exact ⟨rfl, hb⟩

theorem textNewlines (s : ByteArray) (m : Int) (w : World) (hm : Ml m w) :
    Calls Tryd.prog 5 #[.string s] w fun e w' => e = .returned (.bool true) ∧ Below w.heap.size w w' := by
  have HM := Lib.hid hm
  clear hm
  have HSM := Lib.hid (small s w)
  by_cases hs : s.size ≤ 65536
  · have hsm : decide (s.size ≤ 65536) = true := by simpa using hs
    rw [hsm] at HSM
    clear hsm
    have hz := nlS_size s
    have c1 := Lib.hid (newlinesS s m (by omega))
    have c2 := Lib.hid (rNewlines s (by omega))
    have c3 := Lib.hid (rHas (nlS s) 13 (by unfold maxLen; omega))
    rw [nlS_no] at c3
    have c4 := Lib.hid (newlinesS (nlS s) m (by omega))
    rw [nlS_nlS] at c4
    clear hz
    generalize nlS s = t at c1 c2 c3 c4
    go_enter Tryd.func5, Tryd.ntmps5
    go_wp2_with fail
    refine HSM.out.mono ?_
    rintro e w' ⟨rfl, rfl⟩
    go_wp2_with fail
    refine (c1.out _ HM.out).mono ?_
    rintro e w1 ⟨rfl, hb1⟩
    go_wp2_with fail
    refine (c2.out _).mono ?_
    rintro e w2 ⟨rfl, hb2⟩
    have hb2 := below_next hb1 hb2
    go_wp2_with fail
    refine (c3.out _).mono ?_
    rintro e w3 ⟨rfl, rfl⟩
    go_wp2_with fail
    refine (c4.out _ (carry HM.out hb2)).mono ?_
    rintro e w4 ⟨rfl, hb4⟩
    have hb4 := below_next hb2 hb4
    go_wp2_with fail
    refine (known m _ (carry HM.out hb4)).mono ?_
    rintro e w6 ⟨rfl, hb6⟩
    have hb6 := below_next hb4 hb6
    go_wp2_with fail
    go_ret
    exact ⟨rfl, hb6⟩
  · have hsm : decide (s.size ≤ 65536) = false := by simpa using hs
    rw [hsm] at HSM
    clear hsm
    go_enter Tryd.func5, Tryd.ntmps5
    go_wp2_with fail
    refine HSM.out.mono ?_
    rintro e w' ⟨rfl, rfl⟩
    go_wp2_with fail
    refine (known m _ HM.out).mono ?_
    rintro e w5 ⟨rfl, hb5⟩
    go_wp2_with fail
    go_ret
    exact ⟨rfl, hb5⟩
end Go.Proofs.YtdphkjhfeobhaaaDoor
