/-
  The scanner's examples: the rows that each statement checks.
-/
import Derived.Test.YtofiaodpjpjedaaGreatDoorY47
namespace Go.Proofs.YtofiaodpjpjedaaGreatDoor
open Go.RowKit Go.Shelf Go.Lib
set_option maxHeartbeats 2000000
set_option maxRecDepth 100000

theorem kof (s : ByteArray) (n : Int) (w : World) : Calls Tryz.prog 15 #[.string s, .int .i64 n] w fun e w' => e = .returned (.agg #[.string s, .int .i64 n]) ∧ Below w.heap.size w w' := by
  go_enter Tryz.func15, Tryz.ntmps15
  go_wp2_with fail
  refine bodyPost_ret (v := .agg #[.string s, .int .i64 n]) (by simp [results, Tryz.results15, go_sem]) rfl ⟨rfl, ?_⟩
  first | exact Below.refl _ _ | exact below_alloc (Below.refl _ _) _ | trace_state
theorem small02 (s : ByteArray) (w : World) : Calls Tryz.prog 13 #[.string s] w fun e w' => e = .returned (.bool (decide (s.size ≤ 4096))) ∧ w' = w := by
  go_enter Tryz.func13, Tryz.ntmps13
  go_wp2
  go_ret
  exact ⟨ret_bool (by rw [Bool.eq_iff_iff]; simp; omega), rfl⟩

theorem known02 (m : Int) (w : World) (hc : CtlW w) (hm : w.cell? ⟨1, 0, none⟩ = some (.int .i64 m)) :
    Calls Tryz.prog 14 #[] w fun e w' => e = .returned (.bool true) ∧ Below w.heap.size w w' := by
  have HM := Lib.hid hm
  have HC := Lib.hid hc
  clear hm hc
  have hb0 : Below w.heap.size w w := Below.refl _ _
  go_enter Tryz.func14, Tryz.ntmps14
  go_wp2_with fail
  refine (kR1 m w (HC.out.below hb0) (carry HM.out hb0)).mono ?_
  rintro e w1 ⟨rfl, hs1⟩
  have hb1 := below_next hb0 hs1
  clear hs1 hb0
  go_wp2_with fail
  refine (kof ⟨#[194, 172]⟩ 3 w1).mono ?_
  rintro e w2 ⟨rfl, hs2⟩
  have hb2 := below_next hb1 hs2
  clear hs2 hb1
  go_wp2_with fail
  refine (kof ⟨#[194, 172]⟩ 3 w2).mono ?_
  rintro e w3 ⟨rfl, hs3⟩
  have hb3 := below_next hb2 hs3
  clear hs3 hb2
  go_wp2_with fail
  refine (kR2 m w3 (HC.out.below hb3) (carry HM.out hb3)).mono ?_
  rintro e w4 ⟨rfl, hs4⟩
  have hb4 := below_next hb3 hs4
  clear hs4 hb3
  go_wp2_with fail
  refine (kof ⟨#[38, 110, 111, 116]⟩ 3 w4).mono ?_
  rintro e w5 ⟨rfl, hs5⟩
  have hb5 := below_next hb4 hs5
  clear hs5 hb4
  go_wp2_with fail
  refine (kof ⟨#[38, 110, 111, 116]⟩ 3 w5).mono ?_
  rintro e w6 ⟨rfl, hs6⟩
  have hb6 := below_next hb5 hs6
  clear hs6 hb5
  go_wp2_with fail
  refine (kR3 m w6 (HC.out.below hb6) (carry HM.out hb6)).mono ?_
  rintro e w7 ⟨rfl, hs7⟩
  have hb7 := below_next hb6 hs7
  clear hs7 hb6
  go_wp2_with fail
  refine (kof ⟨#[38, 35, 120]⟩ 2 w7).mono ?_
  rintro e w8 ⟨rfl, hs8⟩
  have hb8 := below_next hb7 hs8
  clear hs8 hb7
  go_wp2_with fail
  refine (kof ⟨#[38, 35, 120]⟩ 2 w8).mono ?_
  rintro e w9 ⟨rfl, hs9⟩
  have hb9 := below_next hb8 hs9
  clear hs9 hb8
  go_wp2_with fail
  refine (kR4 m w9 (HC.out.below hb9) (carry HM.out hb9)).mono ?_
  rintro e w10 ⟨rfl, hs10⟩
  have hb10 := below_next hb9 hs10
  clear hs10 hb9
  go_wp2_with fail
  refine (kof ⟨#[226, 130, 172]⟩ 4 w10).mono ?_
  rintro e w11 ⟨rfl, hs11⟩
  have hb11 := below_next hb10 hs11
  clear hs11 hb10
  go_wp2_with fail
  refine (kof ⟨#[226, 130, 172]⟩ 4 w11).mono ?_
  rintro e w12 ⟨rfl, hs12⟩
  have hb12 := below_next hb11 hs12
  clear hs12 hb11
  go_wp2_with fail
  refine (kC1 m w12 (carry HM.out hb12)).mono ?_
  rintro e w13 ⟨rfl, hs13⟩
  have hb13 := below_next hb12 hs13
  clear hs13 hb12
  go_wp2_with fail
  refine (kof ⟨#[97, 45, 45, 98]⟩ 7 w13).mono ?_
  rintro e w14 ⟨rfl, hs14⟩
  have hb14 := below_next hb13 hs14
  clear hs14 hb13
  go_wp2_with fail
  refine (kof ⟨#[97, 45, 45, 98]⟩ 7 w14).mono ?_
  rintro e w15 ⟨rfl, hs15⟩
  have hb15 := below_next hb14 hs15
  clear hs15 hb14
  go_wp2_with fail
  refine (kC2 m w15 (carry HM.out hb15)).mono ?_
  rintro e w16 ⟨rfl, hs16⟩
  have hb16 := below_next hb15 hs16
  clear hs16 hb15
  go_wp2_with fail
  refine (kof ⟨#[]⟩ 2 w16).mono ?_
  rintro e w17 ⟨rfl, hs17⟩
  have hb17 := below_next hb16 hs17
  clear hs17 hb16
  go_wp2_with fail
  refine (kof ⟨#[]⟩ 2 w17).mono ?_
  rintro e w18 ⟨rfl, hs18⟩
  have hb18 := below_next hb17 hs18
  clear hs18 hb17
  go_wp2_with fail
  refine (kD1 m w18 (carry HM.out hb18)).mono ?_
  rintro e w19 ⟨rfl, hs19⟩
  have hb19 := below_next hb18 hs19
  clear hs19 hb18
  go_wp2_with fail
  refine (kof ⟨#[97, 93, 93, 98, 93]⟩ 8 w19).mono ?_
  rintro e w20 ⟨rfl, hs20⟩
  have hb20 := below_next hb19 hs20
  clear hs20 hb19
  go_wp2_with fail
  refine (kof ⟨#[97, 93, 93, 98, 93]⟩ 8 w20).mono ?_
  rintro e w21 ⟨rfl, hs21⟩
  have hb21 := below_next hb20 hs21
  clear hs21 hb20
  go_wp2_with fail
  refine (kT1 m w21 (HC.out.below hb21) (carry HM.out hb21)).mono ?_
  rintro e w22 ⟨pa, pn, pc, rfl, hs22⟩
  unfold tokA
  have hb22 := below_next hb21 hs22
  clear hs22 hb21
  go_wp2_with fail
  obtain ⟨w22a, hwa⟩ : ∃ x, x = w22.alloc (.cells #[.int .i64 2, .string ⟨#[98, 114]⟩, .bool false, .string ⟨#[]⟩, .bool false, .string ⟨#[]⟩, .bool false, .bool false, .slice pa pn pc, .bool false, .string ⟨#[]⟩, .int .i32 0] 40) := ⟨_, rfl⟩
  rw [← hwa]
  replace hb22 : Below w.heap.size w w22a := by rw [hwa]; exact below_alloc hb22 _
  clear hwa
  refine (kL1 w22a).mono ?_
  rintro e w23 ⟨rfl, hs23⟩
  have hb23 := below_next hb22 hs23
  clear hs23 hb22
  go_wp2_with fail
  refine (kL2 w23).mono ?_
  rintro e w24 ⟨rfl, hs24⟩
  have hb24 := below_next hb23 hs24
  clear hs24 hb23
  go_wp2_with fail
  refine (kO1 m w24 (carry HM.out hb24)).mono ?_
  rintro e w25 ⟨qhn, qpub, rfl, hs25⟩
  have hb25 := below_next hb24 hs25
  clear hs25 hb24
  go_wp2_with fail
  obtain ⟨w25a, hwa⟩ : ∃ x, x = w25.alloc (.cells #[.int .i64 1, .string ⟨#[97]⟩, .bool qhn, .string qpub, .bool false, .string ⟨#[121]⟩, .bool true, .bool false, .slice none 0 0, .bool false, .string ⟨#[]⟩, .int .i32 0] 40) := ⟨_, rfl⟩
  rw [← hwa]
  replace hb25 : Below w.heap.size w w25a := by rw [hwa]; exact below_alloc hb25 _
  clear hwa
  refine (kS1 m w25a (carry HM.out hb25)).mono ?_
  rintro e w26 ⟨rfl, hs26⟩
  have hb26 := below_next hb25 hs26
  clear hs26 hb25
  go_wp2_with fail
  refine (kof ⟨#[60, 33, 45, 45, 60, 115, 99, 114, 105, 112, 116, 62, 60, 47, 115, 99, 114, 105, 112, 116, 62]⟩ 21 w26).mono ?_
  rintro e w27 ⟨rfl, hs27⟩
  have hb27 := below_next hb26 hs27
  clear hs27 hb26
  go_wp2_with fail
  refine (kof ⟨#[60, 33, 45, 45, 60, 115, 99, 114, 105, 112, 116, 62, 60, 47, 115, 99, 114, 105, 112, 116, 62]⟩ 21 w27).mono ?_
  rintro e w28 ⟨rfl, hs28⟩
  have hb28 := below_next hb27 hs28
  clear hs28 hb27
  go_wp2_with fail
  refine (kA1 m w28 (HC.out.below hb28) (carry HM.out hb28)).mono ?_
  rintro e w29 ⟨rfl, hs29⟩
  have hb29 := below_next hb28 hs29
  clear hs29 hb28
  go_wp2_with fail
  refine (kof ⟨#[97, 60, 60, 47, 98, 62]⟩ 9 w29).mono ?_
  rintro e w30 ⟨rfl, hs30⟩
  have hb30 := below_next hb29 hs30
  clear hs30 hb29
  go_wp2_with fail
  refine (kof ⟨#[97, 60, 60, 47, 98, 62]⟩ 9 w30).mono ?_
  rintro e w31 ⟨rfl, hs31⟩
  have hb31 := below_next hb30 hs31
  clear hs31 hb30
  go_wp2_with fail
  go_ret
  exact ⟨rfl, hb31⟩
end Go.Proofs.YtofiaodpjpjedaaGreatDoor
