/-
  TextPieces: the walk.
-/
import Derived.Test.YtdphkjhfeobhaaaDoorPok
namespace Go.Proofs.YtdphkjhfeobhaaaDoor
open Go.RowKit
set_option maxHeartbeats 1000000
set_option maxRecDepth 100000

theorem decS_app (a b : ByteArray) : decS (decS a ++ b) = decS a ++ decS b := by
  apply list_bytes
  rw [decS_decL, ByteArray.data_append, ByteArray.data_append, Array.toList_append, Array.toList_append, decS_decL, decL_app, decS_decL]
theorem decS_decS (a : ByteArray) : decS (decS a) = decS a := by
  apply list_bytes
  rw [decS_decL, decS_decL, decL_decL]
theorem cnt_both (a b : ByteArray) : (piecesB (decS a ++ decS b)).length = (piecesB a).length + (piecesB b).length := by
  rw [← decS_app, piecesB_length, piecesB_length, piecesB_length, decS_decL, cnt_dec, ByteArray.data_append, Array.toList_append, decS_decL, cnt_app]

theorem pieces_some (a b : ByteArray) (ha : a.size ≤ 65536) (hb : b.size ≤ 65536) (m : Int) (w : World) (hm : Ml m w) :
    Calls Tryd.prog 7 #[.string a, .string b] w fun e w' => e = .returned (.bool true) ∧ Below w.heap.size w w' := by
  have HM := Lib.hid hm
  clear hm
  have HSA := Lib.hid (small a)
  have HSB := Lib.hid (small b)
  rw [show decide (a.size ≤ 65536) = true by simpa using ha] at HSA
  rw [show decide (b.size ≤ 65536) = true by simpa using hb] at HSB
  have z1 := decS_size3 a
  have z2 := decS_size3 b
  have k1 := Lib.hid (decode a (by omega))
  have k2 := Lib.hid (decode b (by omega))
  have k3 := Lib.hid (decode (decS a ++ b) (by rw [ByteArray.size_append]; omega))
  rw [decS_app] at k3
  have k4 := Lib.hid (decode (decS a) (by omega))
  rw [decS_decS] at k4
  have k5 := Lib.hid (count (decS a ++ decS b) (by rw [ByteArray.size_append]; omega))
  rw [cnt_both, Int.natCast_add] at k5
  have k6 := Lib.hid (count a (by omega))
  have k7 := Lib.hid (count b (by omega))
  have l1 := piecesB_len a
  have l2 := piecesB_len b
  generalize (piecesB a).length = na at k5 k6 l1
  generalize (piecesB b).length = nb at k5 k7 l2
  generalize decS a = s at k1 k3 k4 k5 z1
  generalize decS b = t at k2 k3 k5 z2
  go_enter Tryd.func7, Tryd.ntmps7
  go_wp2_with (first | (go_at_call 21; refine (HSA.out _).mono ?_; rintro e w' ⟨rfl, rfl⟩) | (go_at_call 21; refine (HSB.out _).mono ?_; rintro e w' ⟨rfl, rfl⟩))
  refine (k1.out _).mono ?_
  rintro e w1 ⟨rfl, hb1⟩
  go_wp2_with fail
  refine (k2.out _).mono ?_
  rintro e w2 ⟨rfl, hb2⟩
  have hb2 := below_next hb1 hb2
  go_wp2_with fail
  refine (k3.out _).mono ?_
  rintro e w3 ⟨rfl, hb3⟩
  have hb3 := below_next hb2 hb3
  go_wp2_with fail
  refine (k4.out _).mono ?_
  rintro e w4 ⟨rfl, hb4⟩
  have hb4 := below_next hb3 hb4
  go_wp2_with fail
  refine (k5.out _).mono ?_
  rintro e w5 ⟨rfl, hb5⟩
  have hb5 := below_next hb4 hb5
  go_wp2_with fail
  refine (k6.out _).mono ?_
  rintro e w6 ⟨rfl, hb6⟩
  have hb6 := below_next hb5 hb6
  go_wp2_with fail
  refine (k7.out _).mono ?_
  rintro e w7 ⟨rfl, hb7⟩
  have hb7 := below_next hb6 hb7
  go_wp2_with fail
  refine (known m _ (carry HM.out hb7)).mono ?_
  rintro e w8 ⟨rfl, hb8⟩
  have hb8 := below_next hb7 hb8
  go_wp2_with fail
  go_ret
  exact ⟨rfl, hb8⟩

theorem textPieces (a b : ByteArray) (m : Int) (w : World) (hm : Ml m w) :
    Calls Tryd.prog 7 #[.string a, .string b] w fun e w' => e = .returned (.bool true) ∧ Below w.heap.size w w' := by
  by_cases hs : a.size ≤ 65536 ∧ b.size ≤ 65536
  · exact pieces_some a b hs.1 hs.2 m w hm
  · have HM := Lib.hid hm
    clear hm
    have HSA := Lib.hid (small a)
    have HSB := Lib.hid (small b)
    by_cases ha : a.size ≤ 65536
    · rw [show decide (a.size ≤ 65536) = true by simpa using ha] at HSA
      rw [show decide (b.size ≤ 65536) = false by simpa using fun h => hs ⟨ha, h⟩] at HSB
      clear hs ha
      go_enter Tryd.func7, Tryd.ntmps7
      go_wp2_with (first | (go_at_call 21; refine (HSA.out _).mono ?_; rintro e w' ⟨rfl, rfl⟩) | (go_at_call 21; refine (HSB.out _).mono ?_; rintro e w' ⟨rfl, rfl⟩))
      refine (known m _ HM.out).mono ?_
      rintro e w4 ⟨rfl, hb4⟩
      go_wp2_with fail
      go_ret
      exact ⟨rfl, hb4⟩
    · rw [show decide (a.size ≤ 65536) = false by simpa using ha] at HSA
      clear hs ha HSB
      go_enter Tryd.func7, Tryd.ntmps7
      go_wp2_with (go_at_call 21; refine (HSA.out _).mono ?_; rintro e w' ⟨rfl, rfl⟩)
      refine (known m _ HM.out).mono ?_
      rintro e w4 ⟨rfl, hb4⟩
      go_wp2_with fail
      go_ret
      exact ⟨rfl, hb4⟩
end Go.Proofs.YtdphkjhfeobhaaaDoor
