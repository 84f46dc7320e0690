/-
  Input, and the rows of the examples that each statement checks.
-/
import Derived.Test.YtheiehbfbgjgpabDoorKn1
import Derived.Test.YtheiehbfbgjgpabDoorNel
import Derived.Test.YtheiehbfbgjgpabDoorLow
import Derived.Test.YtheiehbfbgjgpabDoorDig
namespace Go.Proofs.YtheiehbfbgjgpabDoor
open Go.RowKit
set_option maxHeartbeats 1000000
set_option maxRecDepth 100000

theorem decS_list (s : ByteArray) : (decS s).data.toList = decP (piecesB s) := by simp [decS]
theorem decS_size (s : ByteArray) : (decS s).size ≤ 4 * s.size := by
  have h1 := decP_len (piecesB s)
  have h2 := piecesB_len s
  rw [← decS_list, size_list] at h1
  omega

theorem input (s : ByteArray) (m : Int) (hs : s.size ≤ 100000) (w : World) (hm : w.cell? ⟨1, 0, none⟩ = some (.int .i64 m)) :
    Calls Tryd.prog 35 #[.string s] w fun e w' => ∃ S : ByteArray, S.data.toList = newL (decS s).data.toList ∧ e = .returned (.string S) ∧ Below w.heap.size w w' := by
  have hz := decS_size s
  have HM := Lib.hid hm
  clear hm
  go_enter Tryd.func35, Tryd.ntmps35
  go_wp2_with fail
  refine (decode s (by omega) w).mono ?_
  rintro e w1 ⟨rfl, hb1⟩
  generalize hd : decS s = d at hz ⊢
  have HD := Lib.hid hd
  clear hd
  have hm1 := carry HM.out hb1
  have HN := Lib.hid (newlines d m (by omega) w1 hm1)
  clear hm1
  go_wp2_with fail
  refine HN.out.mono ?_
  rintro e w2 ⟨S, hS, rfl, hb2⟩
  have HS := Lib.hid hS
  clear hS
  go_wp2_with fail
  go_ret
  exact ⟨S, by rw [HD.out]; exact HS.out, rfl, below_next hb1 hb2⟩

theorem lawLongest (s : ByteArray) (m : Int) (w : World) (hm : w.cell? ⟨1, 0, none⟩ = some (.int .i64 m)) :
    Calls Tryd.prog 24 #[.string s] w fun e w' => ∃ (n : Int) (V : ByteArray), e = .returned (.int .i64 n) ∧ LgP s.data.toList n V ∧ Below w.heap.size w w' := by
  have HL := Lib.hid (longest s m w hm)
  clear hm
  go_enter Tryd.func24, Tryd.ntmps24
  go_wp2_with fail
  refine HL.out.mono ?_
  rintro e w2 ⟨n, V, rfl, hS, hb2⟩
  have HS := Lib.hid hS
  clear hS
  go_wp2_with fail
  go_ret
  exact ⟨n, V, rfl, HS.out, hb2⟩


/-- The global's cell, in every later world. -/
abbrev Ml (m : Int) (w : World) : Prop := w.cell? ⟨1, 0, none⟩ = some (.int .i64 m)

theorem kNet (m : Int) (w : World) (hm : Ml m w) : Calls Tryd.prog 16 #[.string ⟨#[78, 111, 116, 69, 113, 117, 97, 108, 84, 105, 108, 100, 101, 59]⟩] w fun e w' => e = .returned (.tuple #[.string ⟨#[226, 137, 130, 204, 184]⟩, .int .i64 0]) ∧ Below w.heap.size w w' := by
  refine (named _ m w hm).mono ?_
  rintro e w' ⟨V, c, rfl, h, hb⟩
  have e1 := four_p.1
  rcases h with ⟨h1, rfl⟩ | ⟨h1, _⟩
  · have h2 : some [226, 137, 130, 204, 184] = some V.data.toList := e1.symm.trans h1
    have h3 : V = ⟨#[226, 137, 130, 204, 184]⟩ := list_bytes _ _ (by simpa using h2.symm)
    rw [h3]
    exact ⟨rfl, hb⟩
  · have h2 : some ([226, 137, 130, 204, 184] : List UInt8) = none := e1.symm.trans h1
    simp at h2

theorem kBne (m : Int) (w : World) (hm : Ml m w) : Calls Tryd.prog 16 #[.string ⟨#[98, 110, 101]⟩] w fun e w' => e = .returned (.tuple #[.string ⟨#[]⟩, .int .i64 5]) ∧ Below w.heap.size w w' := by
  refine (named _ m w hm).mono ?_
  rintro e w' ⟨V, c, rfl, h, hb⟩
  have e1 := four_p.2.1
  rcases h with ⟨h1, rfl⟩ | ⟨h1, rfl, rfl⟩
  · have h2 : none = some V.data.toList := e1.symm.trans h1
    simp at h2
  · exact ⟨rfl, hb⟩

theorem kDig (w : World) : Calls Tryd.prog 34 #[.string ⟨#[48, 102, 103]⟩, .int .i64 16] w fun e w' => e = .returned (.tuple #[.int .i64 15, .int .i64 2]) ∧ Below w.heap.size w w' :=
  digits16 ⟨#[48, 102, 103]⟩ (by decide) w

theorem kDec1 (w : World) : Calls Tryd.prog 13 #[.string ⟨#[65, 195, 169]⟩] w fun e w' => e = .returned (.string ⟨#[65, 195, 169]⟩) ∧ Below w.heap.size w w' :=
  decode ⟨#[65, 195, 169]⟩ (by decide) w
theorem kDec2 (w : World) : Calls Tryd.prog 13 #[.string ⟨#[226, 130, 65]⟩] w fun e w' => e = .returned (.string ⟨#[239, 191, 189, 65]⟩) ∧ Below w.heap.size w w' :=
  decode ⟨#[226, 130, 65]⟩ (by decide) w
theorem kDec3 (w : World) : Calls Tryd.prog 13 #[.string ⟨#[237, 160, 128]⟩] w fun e w' => e = .returned (.string ⟨#[239, 191, 189, 239, 191, 189, 239, 191, 189]⟩) ∧ Below w.heap.size w w' :=
  decode ⟨#[237, 160, 128]⟩ (by decide) w
theorem kInp (m : Int) (w : World) (hm : Ml m w) : Calls Tryd.prog 35 #[.string ⟨#[13, 10, 13, 13]⟩] w fun e w' => e = .returned (.string ⟨#[10, 10, 10]⟩) ∧ Below w.heap.size w w' := by
  refine (input _ m (by decide) w hm).mono ?_
  rintro e w' ⟨S, hS, rfl, hb⟩
  have h3 : S = ⟨#[10, 10, 10]⟩ := list_bytes _ _ (hS.trans (by decide +kernel))
  rw [h3]
  exact ⟨rfl, hb⟩
theorem kLow (w : World) : Calls Tryd.prog 36 #[.string ⟨#[65, 98, 90, 195, 137]⟩] w fun e w' => e = .returned (.string ⟨#[97, 98, 122, 195, 137]⟩) ∧ Below w.heap.size w w' :=
  lower ⟨#[65, 98, 90, 195, 137]⟩ (by decide) w
theorem kEl1 (w : World) : Calls Tryd.prog 37 #[.string ⟨#[97, 34, 98]⟩] w fun e w' => e = .returned (.bool true) ∧ Below w.heap.size w w' :=
  validElement ⟨#[97, 34, 98]⟩ (by decide) w
theorem kEl2 (w : World) : Calls Tryd.prog 37 #[.string ⟨#[49, 97]⟩] w fun e w' => e = .returned (.bool false) ∧ Below w.heap.size w w' :=
  validElement ⟨#[49, 97]⟩ (by decide) w
theorem kAtt (w : World) : Calls Tryd.prog 38 #[.string ⟨#[49, 97]⟩] w fun e w' => e = .returned (.bool true) ∧ Below w.heap.size w w' := by
  have h := validAttribute ⟨#[49, 97]⟩ (by decide) w
  rwa [show vAttr ⟨#[49, 97]⟩ = true from by decide +kernel] at h
theorem kLo1 (m : Int) (w : World) (hm : Ml m w) : Calls Tryd.prog 24 #[.string ⟨#[110, 111, 116, 105, 110, 59, 120]⟩] w fun e w' => e = .returned (.int .i64 6) ∧ Below w.heap.size w w' := by
  refine (lawLongest _ m w hm).mono ?_
  rintro e w' ⟨n, V, rfl, h, hb⟩
  rw [lg_notin n V h]
  exact ⟨rfl, hb⟩
theorem kLo2 (m : Int) (w : World) (hm : Ml m w) : Calls Tryd.prog 24 #[.string ⟨#[110, 111, 116, 105]⟩] w fun e w' => e = .returned (.int .i64 3) ∧ Below w.heap.size w w' := by
  refine (lawLongest _ m w hm).mono ?_
  rintro e w' ⟨n, V, rfl, h, hb⟩
  rw [lg_noti n V h]
  exact ⟨rfl, hb⟩
theorem kTxt (m : Int) (w : World) (hm : Ml m w) : Calls Tryd.prog 28 #[.string ⟨#[97, 60, 34, 38, 62]⟩] w fun e w' => e = .returned (.string ⟨#[97, 38, 108, 116, 59, 34, 38, 97, 109, 112, 59, 38, 103, 116, 59]⟩) ∧ Below w.heap.size w w' := by
  refine (escapeText _ m (by decide) w hm).mono ?_
  rintro e w' ⟨S, hS, rfl, hb⟩
  have h3 : S = ⟨#[97, 38, 108, 116, 59, 34, 38, 97, 109, 112, 59, 38, 103, 116, 59]⟩ := list_bytes _ _ (hS.trans (by decide +kernel))
  rw [h3]
  exact ⟨rfl, hb⟩
theorem kVal (m : Int) (w : World) (hm : Ml m w) : Calls Tryd.prog 29 #[.string ⟨#[97, 60, 34, 38, 62]⟩] w fun e w' => e = .returned (.string ⟨#[97, 60, 38, 113, 117, 111, 116, 59, 38, 97, 109, 112, 59, 62]⟩) ∧ Below w.heap.size w w' := by
  refine (escapeValue _ m (by decide) w hm).mono ?_
  rintro e w' ⟨S, hS, rfl, hb⟩
  have h3 : S = ⟨#[97, 60, 38, 113, 117, 111, 116, 59, 38, 97, 109, 112, 59, 62]⟩ := list_bytes _ _ (hS.trans (by decide +kernel))
  rw [h3]
  exact ⟨rfl, hb⟩

theorem known (m : Int) (w : World) (hm : w.cell? ⟨1, 0, none⟩ = some (.int .i64 m)) :
    Calls Tryd.prog 10 #[] w fun e w' => e = .returned (.bool true) ∧ Below w.heap.size w w' := by
  have HM := Lib.hid hm
  clear hm
  go_enter Tryd.func10, Tryd.ntmps10
  go_wp2_with fail
  have hb0 : Below w.heap.size w w := Below.refl _ _
  refine (kNet m w (carry HM.out hb0)).mono ?_
  rintro e w1 ⟨rfl, hs1⟩
  have hb1 := below_next hb0 hs1
  clear hs1 hb0
  go_wp2_with fail
  refine (kBne m w1 (carry HM.out hb1)).mono ?_
  rintro e w2 ⟨rfl, hs2⟩
  have hb2 := below_next hb1 hs2
  clear hs2 hb1
  go_wp2_with fail
  refine (kDig w2).mono ?_
  rintro e w3 ⟨rfl, hs3⟩
  have hb3 := below_next hb2 hs3
  clear hs3 hb2
  go_wp2_with fail
  refine (kDec1 w3).mono ?_
  rintro e w4 ⟨rfl, hs4⟩
  have hb4 := below_next hb3 hs4
  clear hs4 hb3
  go_wp2_with fail
  refine (kDec2 w4).mono ?_
  rintro e w5 ⟨rfl, hs5⟩
  have hb5 := below_next hb4 hs5
  clear hs5 hb4
  go_wp2_with fail
  refine (kDec3 w5).mono ?_
  rintro e w6 ⟨rfl, hs6⟩
  have hb6 := below_next hb5 hs6
  clear hs6 hb5
  go_wp2_with fail
  refine (kInp m w6 (carry HM.out hb6)).mono ?_
  rintro e w7 ⟨rfl, hs7⟩
  have hb7 := below_next hb6 hs7
  clear hs7 hb6
  go_wp2_with fail
  refine (kLow w7).mono ?_
  rintro e w8 ⟨rfl, hs8⟩
  have hb8 := below_next hb7 hs8
  clear hs8 hb7
  go_wp2_with fail
  refine (kEl1 w8).mono ?_
  rintro e w9 ⟨rfl, hs9⟩
  have hb9 := below_next hb8 hs9
  clear hs9 hb8
  go_wp2_with fail
  refine (kEl2 w9).mono ?_
  rintro e w10 ⟨rfl, hs10⟩
  have hb10 := below_next hb9 hs10
  clear hs10 hb9
  go_wp2_with fail
  refine (kAtt w10).mono ?_
  rintro e w11 ⟨rfl, hs11⟩
  have hb11 := below_next hb10 hs11
  clear hs11 hb10
  go_wp2_with fail
  refine (kLo1 m w11 (carry HM.out hb11)).mono ?_
  rintro e w12 ⟨rfl, hs12⟩
  have hb12 := below_next hb11 hs12
  clear hs12 hb11
  go_wp2_with fail
  refine (kLo2 m w12 (carry HM.out hb12)).mono ?_
  rintro e w13 ⟨rfl, hs13⟩
  have hb13 := below_next hb12 hs13
  clear hs13 hb12
  go_wp2_with fail
  refine (kTxt m w13 (carry HM.out hb13)).mono ?_
  rintro e w14 ⟨rfl, hs14⟩
  have hb14 := below_next hb13 hs14
  clear hs14 hb13
  go_wp2_with fail
  refine (kVal m w14 (carry HM.out hb14)).mono ?_
  rintro e w15 ⟨rfl, hs15⟩
  have hb15 := below_next hb14 hs15
  clear hs15 hb14
  go_wp2_with fail
  go_ret
  exact ⟨rfl, hb15⟩
end Go.Proofs.YtheiehbfbgjgpabDoor
