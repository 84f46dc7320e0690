/-
  TextFolds: the walk.
-/
import Derived.Test.YtdphkjhfeobhaaaDoorEqf
namespace Go.Proofs.YtdphkjhfeobhaaaDoor
open Go.RowKit
set_option maxHeartbeats 1000000
set_option maxRecDepth 100000

theorem fold_low (a b : ByteArray) : ((lowS a).toList == (lowS b).toList) = foldB a b := by
  unfold foldB
  rw [Lib.toList_data, Lib.toList_data]
  simp [lowS]
theorem fold_comm (a b : ByteArray) : foldB b a = foldB a b := by
  unfold foldB
  rw [Bool.eq_iff_iff, beq_iff_eq, beq_iff_eq]
  exact ⟨Eq.symm, Eq.symm⟩
theorem fold_self (a : ByteArray) : foldB a (lowS a) = true := by
  unfold foldB
  rw [beq_iff_eq]
  simp [lowS, lowU_low]
theorem fold_trans (a b c : ByteArray) (h : foldB a b = true) : foldB a c = foldB b c := by
  unfold foldB at h ⊢
  rw [beq_iff_eq] at h
  rw [h]
theorem fold_app (a b c : ByteArray) : foldB (a ++ c) (b ++ c) = foldB a b := by
  unfold foldB
  rw [ByteArray.data_append, ByteArray.data_append, Array.toList_append, Array.toList_append, List.map_append, List.map_append, Bool.eq_iff_iff, beq_iff_eq, beq_iff_eq]
  exact List.append_left_inj _

theorem folds_some (a b c : ByteArray) (ha : a.size ≤ 65536) (hb : b.size ≤ 65536) (hc : c.size ≤ 65536) (m : Int) (w : World) (hm : Ml m w) :
    Calls Tryd.prog 12 #[.string a, .string b, .string c] w fun e w' => e = .returned (.bool true) ∧ Below w.heap.size w w' := by
  have HM := Lib.hid hm
  clear hm
  have HSA := Lib.hid (small a)
  have HSB := Lib.hid (small b)
  have HSC := Lib.hid (small c)
  rw [show decide (a.size ≤ 65536) = true by simpa using ha] at HSA
  rw [show decide (b.size ≤ 65536) = true by simpa using hb] at HSB
  rw [show decide (c.size ≤ 65536) = true by simpa using hc] at HSC
  have k1 := Lib.hid (equalFold a b (by unfold maxLen; omega))
  have k2 := Lib.hid (equalFold b c (by unfold maxLen; omega))
  have k3 := Lib.hid (rLower a (by omega))
  have k4 := Lib.hid (rLower b (by omega))
  have k5 := Lib.hid (equalFold b a (by unfold maxLen; omega))
  have k6 := Lib.hid (lower a (by unfold maxLen; omega))
  have k7 := Lib.hid (equalFold a (lowS a) (by unfold maxLen; omega))
  have k8 := Lib.hid (equalFold a c (by unfold maxLen; omega))
  have k9 := Lib.hid (equalFold (a ++ c) (b ++ c) (by rw [ByteArray.size_append]; unfold maxLen; omega))
  have q1 := fold_low a b
  rw [fold_comm a b] at k5
  rw [fold_self] at k7
  rw [fold_app] at k9
  have q2 := fold_trans a b c
  cases hv : foldB a b with
  | true =>
    rw [q2 hv] at k8
    rw [hv] at k1 k5 k9 q1
    clear q2 hv
    generalize lowS a = la at k3 k6 k7 q1
    generalize lowS b = lb at k4 q1
    generalize foldB b c = bc at k2 k8
    go_enter Tryd.func12, Tryd.ntmps12
    go_wp2_with (first | (go_at_call 21; refine (HSA.out _).mono ?_; rintro e w' ⟨rfl, rfl⟩) | (go_at_call 21; refine (HSB.out _).mono ?_; rintro e w' ⟨rfl, rfl⟩) | (go_at_call 21; refine (HSC.out _).mono ?_; rintro e w' ⟨rfl, rfl⟩))
    refine (k1.out _).mono ?_
    rintro e w1 ⟨rfl, hb1⟩
    go_wp2_with fail
    refine (k2.out _).mono ?_
    rintro e w2 ⟨rfl, hb2⟩
    have hb2 := below_next hb1 hb2
    go_wp2_with fail
    refine (k3.out _).mono ?_
    rintro e w3 ⟨rfl, hb3⟩
    have hb3 := below_next hb2 hb3
    go_wp2_with fail
    refine (k4.out _).mono ?_
    rintro e w4 ⟨rfl, hb4⟩
    have hb4 := below_next hb3 hb4
    go_wp2_with fail
    refine (k5.out _).mono ?_
    rintro e w5 ⟨rfl, hb5⟩
    have hb5 := below_next hb4 hb5
    go_wp2_with fail
    refine (k6.out _).mono ?_
    rintro e w6 ⟨rfl, hb6⟩
    have hb6 := below_next hb5 hb6
    go_wp2_with fail
    refine (k7.out _).mono ?_
    rintro e w7 ⟨rfl, hb7⟩
    have hb7 := below_next hb6 hb7
    go_wp2_with fail
    refine (k8.out _).mono ?_
    rintro e w8 ⟨rfl, hb8⟩
    have hb8 := below_next hb7 hb8
    go_wp2_with fail
    refine (k9.out _).mono ?_
    rintro e w9 ⟨rfl, hb9⟩
    have hb9 := below_next hb8 hb9
    go_wp2_with fail
    refine (known m _ (carry HM.out hb9)).mono ?_
    rintro e w10 ⟨rfl, hb10⟩
    have hb10 := below_next hb9 hb10
    go_wp2_with fail
    go_ret
    exact ⟨rfl, hb10⟩
  | false =>
    rw [hv] at k1 k5 k9 q1
    clear q2 hv k8
    generalize lowS a = la at k3 k6 k7 q1
    generalize lowS b = lb at k4 q1
    generalize foldB b c = bc at k2
    go_enter Tryd.func12, Tryd.ntmps12
    go_wp2_with (first | (go_at_call 21; refine (HSA.out _).mono ?_; rintro e w' ⟨rfl, rfl⟩) | (go_at_call 21; refine (HSB.out _).mono ?_; rintro e w' ⟨rfl, rfl⟩) | (go_at_call 21; refine (HSC.out _).mono ?_; rintro e w' ⟨rfl, rfl⟩))
    refine (k1.out _).mono ?_
    rintro e w1 ⟨rfl, hb1⟩
    go_wp2_with fail
    refine (k2.out _).mono ?_
    rintro e w2 ⟨rfl, hb2⟩
    have hb2 := below_next hb1 hb2
    go_wp2_with fail
    refine (k3.out _).mono ?_
    rintro e w3 ⟨rfl, hb3⟩
    have hb3 := below_next hb2 hb3
    go_wp2_with fail
    refine (k4.out _).mono ?_
    rintro e w4 ⟨rfl, hb4⟩
    have hb4 := below_next hb3 hb4
    go_wp2_with fail
    refine (k5.out _).mono ?_
    rintro e w5 ⟨rfl, hb5⟩
    have hb5 := below_next hb4 hb5
    go_wp2_with fail
    refine (k6.out _).mono ?_
    rintro e w6 ⟨rfl, hb6⟩
    have hb6 := below_next hb5 hb6
    go_wp2_with fail
    refine (k7.out _).mono ?_
    rintro e w7 ⟨rfl, hb7⟩
    have hb7 := below_next hb6 hb7
    go_wp2_with fail
    refine (k9.out _).mono ?_
    rintro e w9 ⟨rfl, hb9⟩
    have hb9 := below_next hb7 hb9
    go_wp2_with fail
    refine (known m _ (carry HM.out hb9)).mono ?_
    rintro e w10 ⟨rfl, hb10⟩
    have hb10 := below_next hb9 hb10
    go_wp2_with fail
    go_ret
    exact ⟨rfl, hb10⟩

theorem textFolds (a b c : ByteArray) (m : Int) (w : World) (hm : Ml m w) :
    Calls Tryd.prog 12 #[.string a, .string b, .string c] w fun e w' => e = .returned (.bool true) ∧ Below w.heap.size w w' := by
  by_cases hs : a.size ≤ 65536 ∧ b.size ≤ 65536 ∧ c.size ≤ 65536
  · exact folds_some a b c hs.1 hs.2.1 hs.2.2 m w hm
  · have HM := Lib.hid hm
    clear hm
    have HSA := Lib.hid (small a)
    have HSB := Lib.hid (small b)
    have HSC := Lib.hid (small c)
    by_cases ha : a.size ≤ 65536
    · rw [show decide (a.size ≤ 65536) = true by simpa using ha] at HSA
      by_cases hb : b.size ≤ 65536
      · rw [show decide (b.size ≤ 65536) = true by simpa using hb] at HSB
        rw [show decide (c.size ≤ 65536) = false by simpa using fun h => hs ⟨ha, hb, h⟩] at HSC
        clear hs ha hb
        go_enter Tryd.func12, Tryd.ntmps12
        go_wp2_with (first | (go_at_call 21; refine (HSA.out _).mono ?_; rintro e w' ⟨rfl, rfl⟩) | (go_at_call 21; refine (HSB.out _).mono ?_; rintro e w' ⟨rfl, rfl⟩) | (go_at_call 21; refine (HSC.out _).mono ?_; rintro e w' ⟨rfl, rfl⟩))
        refine (known m _ HM.out).mono ?_
        rintro e w4 ⟨rfl, hb4⟩
        go_wp2_with fail
        go_ret
        exact ⟨rfl, hb4⟩
      · rw [show decide (b.size ≤ 65536) = false by simpa using hb] at HSB
        clear hs ha hb HSC
        go_enter Tryd.func12, Tryd.ntmps12
        go_wp2_with (first | (go_at_call 21; refine (HSA.out _).mono ?_; rintro e w' ⟨rfl, rfl⟩) | (go_at_call 21; refine (HSB.out _).mono ?_; rintro e w' ⟨rfl, rfl⟩))
        refine (known m _ HM.out).mono ?_
        rintro e w4 ⟨rfl, hb4⟩
        go_wp2_with fail
        go_ret
        exact ⟨rfl, hb4⟩
    · rw [show decide (a.size ≤ 65536) = false by simpa using ha] at HSA
      clear hs ha HSC HSB
      go_enter Tryd.func12, Tryd.ntmps12
      go_wp2_with (go_at_call 21; refine (HSA.out _).mono ?_; rintro e w' ⟨rfl, rfl⟩)
      refine (known m _ HM.out).mono ?_
      rintro e w4 ⟨rfl, hb4⟩
      go_wp2_with fail
      go_ret
      exact ⟨rfl, hb4⟩
end Go.Proofs.YtdphkjhfeobhaaaDoor
