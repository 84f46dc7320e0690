/-
  TextValid: the walk.
-/
import Derived.Test.YtdphkjhfeobhaaaDoorRvw
namespace Go.Proofs.YtdphkjhfeobhaaaDoor
open Go.RowKit
set_option maxHeartbeats 1000000
set_option maxRecDepth 100000

theorem all_okV (s : ByteArray) : ((piecesB s).all fun x => x.1.2) = okV s.data.toList := by
  unfold piecesB okV
  rw [List.all_map]
  rfl
theorem okV_iff (l : List UInt8) : okV l = true ↔ Whole1 l := by
  unfold okV Whole1
  rw [List.all_eq_true]
theorem okV_dec (s : ByteArray) : okV (decS s).data.toList = true := by
  rw [okV_iff, decS_decL]
  exact whole_dec _
theorem dec_eq (s : ByteArray) : ((decS s).toList == s.toList) = okV s.data.toList := by
  rw [Lib.toList_data, Lib.toList_data, decS_decL, Bool.eq_iff_iff, beq_iff_eq, okV_iff]
  constructor
  · intro h
    rw [← h]
    exact whole_dec _
  · exact whole_same

theorem textValid (s : ByteArray) (m : Int) (w : World) (hm : Ml m w) :
    Calls Tryd.prog 4 #[.string s] w fun e w' => e = .returned (.bool true) ∧ Below w.heap.size w w' := by
  have HM := Lib.hid hm
  clear hm
  have HSM := Lib.hid (small s w)
  by_cases hs : s.size ≤ 65536
  · have hsm : decide (s.size ≤ 65536) = true := by simpa using hs
    rw [hsm] at HSM
    clear hsm
    have hz := decS_size3 s
    have k1 := Lib.hid (decode s (by omega))
    have k2 := Lib.hid (valid s (by omega))
    rw [all_okV] at k2
    have k3 := Lib.hid (rValid s (by omega))
    have k4 := Lib.hid (valid (decS s) (by omega))
    rw [all_okV, okV_dec] at k4
    have hq := dec_eq s
    clear hz
    generalize okV s.data.toList = v at k2 k3 hq
    generalize decS s = t at k1 k4 hq
    cases v
    all_goals
      go_enter Tryd.func4, Tryd.ntmps4
      go_wp2_with fail
      refine HSM.out.mono ?_
      rintro e w' ⟨rfl, rfl⟩
      go_wp2_with fail
      refine (k1.out _).mono ?_
      rintro e w1 ⟨rfl, hb1⟩
      go_wp2_with fail
      refine (k2.out _).mono ?_
      rintro e w2 ⟨rfl, hb2⟩
      have hb2 := below_next hb1 hb2
      go_wp2_with fail
      refine (k3.out _).mono ?_
      rintro e w3 ⟨rfl, hb3⟩
      have hb3 := below_next hb2 hb3
      go_wp2_with fail
      refine (k4.out _).mono ?_
      rintro e w4 ⟨rfl, hb4⟩
      have hb4 := below_next hb3 hb4
      go_wp2_with fail
      refine (k2.out _).mono ?_
      rintro e w5 ⟨rfl, hb5⟩
      have hb5 := below_next hb4 hb5
      go_wp2_with fail
      refine (known m _ (carry HM.out hb5)).mono ?_
      rintro e w6 ⟨rfl, hb6⟩
      have hb6 := below_next hb5 hb6
      go_wp2_with fail
      go_ret
      exact ⟨rfl, hb6⟩
  · have hsm : decide (s.size ≤ 65536) = false := by simpa using hs
    rw [hsm] at HSM
    clear hsm
    go_enter Tryd.func4, Tryd.ntmps4
    go_wp2_with fail
    refine HSM.out.mono ?_
    rintro e w' ⟨rfl, rfl⟩
    go_wp2_with fail
    refine (known m _ HM.out).mono ?_
    rintro e w5 ⟨rfl, hb5⟩
    go_wp2_with fail
    go_ret
    exact ⟨rfl, hb5⟩
end Go.Proofs.YtdphkjhfeobhaaaDoor
