/-
  The scanner's examples: what the readers answer at them.
  The scanner's examples: the rows that each statement checks.
  ScanLater: script data never ends before raw text does; the text of both is what was consumed.
  The frame of the rows that list the table of the controls as well.
-/
import Derived.Test.YtbjnolihaacahaaGreatDoorY35
import Derived.Test.YtbjnolihaacahaaGreatDoorY36
import Derived.Test.YtbjnolihaacahaaGreatDoorY37
import Derived.Test.YtbjnolihaacahaaGreatDoorY38
import Derived.Test.YtbjnolihaacahaaGreatDoorY43
import Derived.Test.YtbjnolihaacahaaGreatDoorY51
import Derived.Test.YtbjnolihaacahaaGreatDoorY40
import Derived.Test.YtbjnolihaacahaaGreatDoorY26
import Derived.Test.YtbjnolihaacahaaGreatDoorY31
import Derived.Test.YtbjnolihaacahaaGreatDoorY30
namespace Go.Proofs.YtbjnolihaacahaaGreatDoor
open Go.RowKit Go.Shelf Go.Lib
set_option maxHeartbeats 2000000
set_option maxRecDepth 100000

theorem drop_one {l : List UInt8} {N n : Nat} {r : List UInt8} (h : l.drop N = r) (hl : l.length = n) (hn : N ≤ n) : N = n - r.length := by
  have := congrArg List.length h
  rw [List.length_drop, hl] at this
  omega
theorem kR1 (m : Int) (w : World) (hc : CtlW w) (hm : w.cell? ⟨1, 0, none⟩ = some (.int .i64 m)) : Calls Tryz.prog 16 #[.string ⟨#[110, 111, 116, 105, 116, 59]⟩, .int .i64 0, .bool false] w fun e w' => e = .returned (.tuple #[.string ⟨#[194, 172]⟩, .int .i64 3]) ∧ Below w.heap.size w w' := by
  refine (referenceC lgL (Lib.hid lgOk) _ 0 false m (by decide) w hc hm).mono ?_
  rintro e w' ⟨V, N, rfl, hV, hN, _, hb⟩
  rw [show tlS ⟨#[110, 111, 116, 105, 116, 59]⟩ 0 = sNotit from rfl, ref_notF] at hV hN
  obtain rfl : V = ⟨#[194, 172]⟩ := list_bytes _ _ hV
  subst hN
  exact ⟨rfl, hb⟩
theorem kR2 (m : Int) (w : World) (hc : CtlW w) (hm : w.cell? ⟨1, 0, none⟩ = some (.int .i64 m)) : Calls Tryz.prog 16 #[.string ⟨#[110, 111, 116, 105, 116, 59]⟩, .int .i64 0, .bool true] w fun e w' => e = .returned (.tuple #[.string ⟨#[38, 110, 111, 116]⟩, .int .i64 3]) ∧ Below w.heap.size w w' := by
  refine (referenceC lgL (Lib.hid lgOk) _ 0 true m (by decide) w hc hm).mono ?_
  rintro e w' ⟨V, N, rfl, hV, hN, _, hb⟩
  rw [show tlS ⟨#[110, 111, 116, 105, 116, 59]⟩ 0 = sNotit from rfl, ref_notT] at hV hN
  obtain rfl : V = ⟨#[38, 110, 111, 116]⟩ := list_bytes _ _ hV
  subst hN
  exact ⟨rfl, hb⟩
theorem kR3 (m : Int) (w : World) (hc : CtlW w) (hm : w.cell? ⟨1, 0, none⟩ = some (.int .i64 m)) : Calls Tryz.prog 16 #[.string ⟨#[35, 120, 103]⟩, .int .i64 0, .bool false] w fun e w' => e = .returned (.tuple #[.string ⟨#[38, 35, 120]⟩, .int .i64 2]) ∧ Below w.heap.size w w' := by
  refine (referenceC lgL (Lib.hid lgOk) _ 0 false m (by decide) w hc hm).mono ?_
  rintro e w' ⟨V, N, rfl, hV, hN, _, hb⟩
  rw [show tlS ⟨#[35, 120, 103]⟩ 0 = [35, 120, 103] from rfl, ref_xg] at hV hN
  obtain rfl : V = ⟨#[38, 35, 120]⟩ := list_bytes _ _ hV
  subst hN
  exact ⟨rfl, hb⟩
theorem kR4 (m : Int) (w : World) (hc : CtlW w) (hm : w.cell? ⟨1, 0, none⟩ = some (.int .i64 m)) : Calls Tryz.prog 16 #[.string ⟨#[35, 120, 56, 48]⟩, .int .i64 0, .bool true] w fun e w' => e = .returned (.tuple #[.string ⟨#[226, 130, 172]⟩, .int .i64 4]) ∧ Below w.heap.size w w' := by
  refine (referenceC lgL (Lib.hid lgOk) _ 0 true m (by decide) w hc hm).mono ?_
  rintro e w' ⟨V, N, rfl, hV, hN, _, hb⟩
  rw [show tlS ⟨#[35, 120, 56, 48]⟩ 0 = [35, 120, 56, 48] from rfl, ref_x80] at hV hN
  obtain rfl : V = ⟨#[226, 130, 172]⟩ := list_bytes _ _ hV
  subst hN
  exact ⟨rfl, hb⟩
theorem kC1 (m : Int) (w : World) (hm : w.cell? ⟨1, 0, none⟩ = some (.int .i64 m)) : Calls Tryz.prog 18 #[.string ⟨#[97, 45, 45, 98, 45, 45, 62, 99]⟩, .int .i64 0] w fun e w' => e = .returned (.tuple #[.string ⟨#[97, 45, 45, 98]⟩, .int .i64 7]) ∧ Below w.heap.size w w' := by
  refine (commentC _ 0 m (by decide) w hm).mono ?_
  rintro e w' ⟨rfl, hb⟩
  rw [show tlS ⟨#[97, 45, 45, 98, 45, 45, 62, 99]⟩ 0 = [97, 45, 45, 98, 45, 45, 62, 99] from rfl, com_k1]
  exact ⟨rfl, hb⟩
theorem kC2 (m : Int) (w : World) (hm : w.cell? ⟨1, 0, none⟩ = some (.int .i64 m)) : Calls Tryz.prog 18 #[.string ⟨#[45, 62, 97]⟩, .int .i64 0] w fun e w' => e = .returned (.tuple #[.string ⟨#[]⟩, .int .i64 2]) ∧ Below w.heap.size w w' := by
  refine (commentC _ 0 m (by decide) w hm).mono ?_
  rintro e w' ⟨rfl, hb⟩
  rw [show tlS ⟨#[45, 62, 97]⟩ 0 = [45, 62, 97] from rfl, com_k2]
  exact ⟨rfl, hb⟩
theorem kD1 (m : Int) (w : World) (hm : w.cell? ⟨1, 0, none⟩ = some (.int .i64 m)) : Calls Tryz.prog 22 #[.string ⟨#[97, 93, 93, 98, 93, 93, 93, 62, 99]⟩, .int .i64 0] w fun e w' => e = .returned (.tuple #[.string ⟨#[97, 93, 93, 98, 93]⟩, .int .i64 8]) ∧ Below w.heap.size w w' := by
  refine (cdata _ 0 m (by decide) w hm).mono ?_
  rintro e w' ⟨rfl, hb⟩
  rw [show tlS ⟨#[97, 93, 93, 98, 93, 93, 93, 62, 99]⟩ 0 = [97, 93, 93, 98, 93, 93, 93, 62, 99] from rfl, show utL [93, 93, 62] [97, 93, 93, 98, 93, 93, 93, 62, 99] = ([97, 93, 93, 98, 93], 8) from by decide +kernel]
  exact ⟨rfl, hb⟩
theorem kT1 (m : Int) (w : World) (hc : CtlW w) (hm : w.cell? ⟨1, 0, none⟩ = some (.int .i64 m)) : Calls Tryz.prog 45 #[.string ⟨#[66, 114, 47, 32, 62, 120]⟩, .int .i64 0, .bool false] w fun e w' =>
    ∃ pa pn pc, e = .returned (.tuple #[tokA 2 ⟨#[98, 114]⟩ (.slice pa pn pc) false, .bool true, .int .i64 5]) ∧ Below w.heap.size w w' := by
  refine (tagC lgL (Lib.hid lgOk) _ 0 false m (by decide) w hc hm).mono ?_
  rintro e w' ⟨tk, cl, N, rfl, hb, _, hN, hor⟩
  rw [show tlS ⟨#[66, 114, 47, 32, 62, 120]⟩ 0 = [66, 114, 47, 32, 62, 120] from rfl, show tgRest [66, 114, 47, 32, 62, 120] = [47, 32, 62, 120] from by decide +kernel, tag_k, show tgName [66, 114, 47, 32, 62, 120] = [98, 114] from by decide +kernel] at hor
  rcases hor with ⟨_, _, _, h⟩ | ⟨rfl, acc, sc, v, h, hrow, _, rfl⟩
  · cases h
  · injection h with h
    injection h with h1 h
    injection h with h2 h3
    obtain rfl : N = 5 := drop_one h3.symm (n := 6) rfl hN
    subst h1 h2
    obtain ⟨pa, pn, pc, rfl⟩ : ∃ pa pn pc, v = .slice pa pn pc := by
      rcases hrow.2 with ⟨rfl, _⟩ | ⟨g, cap, cur, rfl, _⟩
      · exact ⟨_, _, _, rfl⟩
      · exact ⟨_, _, _, rfl⟩
    exact ⟨pa, pn, pc, rfl, hb⟩
theorem kL1 (w : World) : Calls Tryz.prog 31 #[.string ⟨#[60, 47, 104, 49, 62]⟩, .int .i64 0, .string ⟨#[104, 49]⟩] w fun e w' => e = .returned (.bool false) ∧ Below w.heap.size w w' := by
  have h := closesC ⟨#[60, 47, 104, 49, 62]⟩ 0 ⟨#[104, 49]⟩ (by decide) w
  rwa [show closesL (ByteArray.mk #[104, 49]).data.toList (tlS ⟨#[60, 47, 104, 49, 62]⟩ 0) = false from clo_k1] at h
theorem kL2 (w : World) : Calls Tryz.prog 31 #[.string ⟨#[60, 47, 84, 105, 116, 108, 101, 47]⟩, .int .i64 0, .string ⟨#[116, 105, 116, 108, 101]⟩] w fun e w' => e = .returned (.bool true) ∧ Below w.heap.size w w' := by
  have h := closesC ⟨#[60, 47, 84, 105, 116, 108, 101, 47]⟩ 0 ⟨#[116, 105, 116, 108, 101]⟩ (by decide) w
  rwa [show closesL (ByteArray.mk #[116, 105, 116, 108, 101]).data.toList (tlS ⟨#[60, 47, 84, 105, 116, 108, 101, 47]⟩ 0) = true from clo_k2] at h
theorem kO1 (m : Int) (w : World) (hm : w.cell? ⟨1, 0, none⟩ = some (.int .i64 m)) : Calls Tryz.prog 24 #[.string ⟨#[32, 97, 32, 83, 89, 83, 84, 69, 77, 39, 121, 39, 32, 122, 62]⟩, .int .i64 0] w fun e w' =>
    ∃ (hn : Bool) (pub : ByteArray), e = .returned (.tuple #[.agg #[.int .i64 1, .string ⟨#[97]⟩, .bool hn, .string pub, .bool false, .string ⟨#[121]⟩, .bool true, .bool false, .slice none 0 0, .bool false, .string ⟨#[]⟩, .int .i32 0], .int .i64 15]) ∧ Below w.heap.size w w' := by
  refine (doctypeC _ 0 m (by decide) w hm).mono ?_
  rintro e w' ⟨d, j, rfl, hb, _, hj, h⟩
  have hk := doc_k
  rw [show [32, 97, 32, 83, 89, 83, 84, 69, 77, 39, 121, 39, 32, 122, 62] = tlS ⟨#[32, 97, 32, 83, 89, 83, 84, 69, 77, 39, 121, 39, 32, 122, 62]⟩ 0 from rfl, h] at hk
  obtain ⟨st, q, name, hn, pub, hp, sys, hs, qk⟩ := d
  obtain ⟨h1, h2, h3, h4, h5, h6⟩ := hk
  obtain rfl : name = ⟨#[97]⟩ := list_bytes _ _ h1
  obtain rfl : sys = ⟨#[121]⟩ := list_bytes _ _ h3
  obtain rfl : hp = false := h2
  obtain rfl : hs = true := h4
  obtain rfl : qk = false := h5
  obtain rfl : j = 15 := drop_one h6 (n := 15) rfl hj
  exact ⟨hn, pub, rfl, hb⟩
theorem kS1 (m : Int) (w : World) (hm : w.cell? ⟨1, 0, none⟩ = some (.int .i64 m)) : Calls Tryz.prog 39 #[.string ⟨#[60, 33, 45, 45, 60, 115, 99, 114, 105, 112, 116, 62, 60, 47, 115, 99, 114, 105, 112, 116, 62, 60, 47, 115, 99, 114, 105, 112, 116, 62]⟩, .int .i64 0, .string ⟨#[115, 99, 114, 105, 112, 116]⟩] w fun e w' => e = .returned (.tuple #[.string ⟨#[60, 33, 45, 45, 60, 115, 99, 114, 105, 112, 116, 62, 60, 47, 115, 99, 114, 105, 112, 116, 62]⟩, .int .i64 21]) ∧ Below w.heap.size w w' := by
  refine (scriptC _ 0 _ m (by decide) w hm).mono ?_
  rintro e w' ⟨N, h, hN, rfl, hb⟩
  rw [show clip ⟨#[60, 33, 45, 45, 60, 115, 99, 114, 105, 112, 116, 62, 60, 47, 115, 99, 114, 105, 112, 116, 62, 60, 47, 115, 99, 114, 105, 112, 116, 62]⟩ 0 = 0 from rfl] at h hN ⊢
  have h' : _ = List.drop N _ := scr_k.symm.trans h
  obtain rfl : N = 21 := drop_one h'.symm (n := 30) rfl (by rw [Nat.zero_add] at hN; exact hN)
  exact ⟨rfl, hb⟩
theorem kA1 (m : Int) (w : World) (hc : CtlW w) (hm : w.cell? ⟨1, 0, none⟩ = some (.int .i64 m)) : Calls Tryz.prog 35 #[.string ⟨#[97, 38, 108, 116, 59, 60, 47, 98, 62, 60, 47, 97, 62]⟩, .int .i64 0, .string ⟨#[97]⟩] w fun e w' => e = .returned (.tuple #[.string ⟨#[97, 60, 60, 47, 98, 62]⟩, .int .i64 9]) ∧ Below w.heap.size w w' := by
  refine (rcdata lgL (Lib.hid lgOk) _ 0 _ m (by decide) w hc hm).mono ?_
  rintro e w' ⟨N, h, hN, rfl, hb⟩
  rw [show tlS ⟨#[97, 38, 108, 116, 59, 60, 47, 98, 62, 60, 47, 97, 62]⟩ 0 = [97, 38, 108, 116, 59, 60, 47, 98, 62, 60, 47, 97, 62] from rfl, show clip ⟨#[97, 38, 108, 116, 59, 60, 47, 98, 62, 60, 47, 97, 62]⟩ 0 = 0 from rfl] at *
  have h' : _ = List.drop N _ := stop_k.symm.trans h
  obtain rfl : N = 9 := drop_one h'.symm (n := 13) rfl (by rw [Nat.zero_add] at hN; exact hN)
  rw [show List.take 9 [97, 38, 108, 116, 59, 60, 47, 98, 62, 60, 47, 97, 62] = 97 :: 38 :: sLtb from rfl, res_ltb _ ref_ltb]
  exact ⟨rfl, hb⟩
end Go.Proofs.YtbjnolihaacahaaGreatDoor

namespace Go.Proofs.YtbjnolihaacahaaGreatDoor
open Go.RowKit Go.Shelf Go.Lib
set_option maxHeartbeats 2000000
set_option maxRecDepth 100000

theorem kof (s : ByteArray) (n : Int) (w : World) : Calls Tryz.prog 15 #[.string s, .int .i64 n] w fun e w' => e = .returned (.agg #[.string s, .int .i64 n]) ∧ Below w.heap.size w w' := by
  go_enter Tryz.func15, Tryz.ntmps15
  go_wp2_with fail
  refine bodyPost_ret (v := .agg #[.string s, .int .i64 n]) (by simp [results, Tryz.results15, go_sem]) rfl ⟨rfl, ?_⟩
  first | exact Below.refl _ _ | exact below_alloc (Below.refl _ _) _ | trace_state
theorem small02 (s : ByteArray) (w : World) : Calls Tryz.prog 13 #[.string s] w fun e w' => e = .returned (.bool (decide (s.size ≤ 4096))) ∧ w' = w := by
  go_enter Tryz.func13, Tryz.ntmps13
  go_wp2
  go_ret
  exact ⟨ret_bool (by rw [Bool.eq_iff_iff]; simp; omega), rfl⟩

theorem known02 (m : Int) (w : World) (hc : CtlW w) (hm : w.cell? ⟨1, 0, none⟩ = some (.int .i64 m)) :
    Calls Tryz.prog 14 #[] w fun e w' => e = .returned (.bool true) ∧ Below w.heap.size w w' := by
  have HM := Lib.hid hm
  have HC := Lib.hid hc
  clear hm hc
  have hb0 : Below w.heap.size w w := Below.refl _ _
  go_enter Tryz.func14, Tryz.ntmps14
  go_wp2_with fail
  refine (kR1 m w (HC.out.below hb0) (carry HM.out hb0)).mono ?_
  rintro e w1 ⟨rfl, hs1⟩
  have hb1 := below_next hb0 hs1
  clear hs1 hb0
  go_wp2_with fail
  refine (kof ⟨#[194, 172]⟩ 3 w1).mono ?_
  rintro e w2 ⟨rfl, hs2⟩
  have hb2 := below_next hb1 hs2
  clear hs2 hb1
  go_wp2_with fail
  refine (kof ⟨#[194, 172]⟩ 3 w2).mono ?_
  rintro e w3 ⟨rfl, hs3⟩
  have hb3 := below_next hb2 hs3
  clear hs3 hb2
  go_wp2_with fail
  refine (kR2 m w3 (HC.out.below hb3) (carry HM.out hb3)).mono ?_
  rintro e w4 ⟨rfl, hs4⟩
  have hb4 := below_next hb3 hs4
  clear hs4 hb3
  go_wp2_with fail
  refine (kof ⟨#[38, 110, 111, 116]⟩ 3 w4).mono ?_
  rintro e w5 ⟨rfl, hs5⟩
  have hb5 := below_next hb4 hs5
  clear hs5 hb4
  go_wp2_with fail
  refine (kof ⟨#[38, 110, 111, 116]⟩ 3 w5).mono ?_
  rintro e w6 ⟨rfl, hs6⟩
  have hb6 := below_next hb5 hs6
  clear hs6 hb5
  go_wp2_with fail
  refine (kR3 m w6 (HC.out.below hb6) (carry HM.out hb6)).mono ?_
  rintro e w7 ⟨rfl, hs7⟩
  have hb7 := below_next hb6 hs7
  clear hs7 hb6
  go_wp2_with fail
  refine (kof ⟨#[38, 35, 120]⟩ 2 w7).mono ?_
  rintro e w8 ⟨rfl, hs8⟩
  have hb8 := below_next hb7 hs8
  clear hs8 hb7
  go_wp2_with fail
  refine (kof ⟨#[38, 35, 120]⟩ 2 w8).mono ?_
  rintro e w9 ⟨rfl, hs9⟩
  have hb9 := below_next hb8 hs9
  clear hs9 hb8
  go_wp2_with fail
  refine (kR4 m w9 (HC.out.below hb9) (carry HM.out hb9)).mono ?_
  rintro e w10 ⟨rfl, hs10⟩
  have hb10 := below_next hb9 hs10
  clear hs10 hb9
  go_wp2_with fail
  refine (kof ⟨#[226, 130, 172]⟩ 4 w10).mono ?_
  rintro e w11 ⟨rfl, hs11⟩
  have hb11 := below_next hb10 hs11
  clear hs11 hb10
  go_wp2_with fail
  refine (kof ⟨#[226, 130, 172]⟩ 4 w11).mono ?_
  rintro e w12 ⟨rfl, hs12⟩
  have hb12 := below_next hb11 hs12
  clear hs12 hb11
  go_wp2_with fail
  refine (kC1 m w12 (carry HM.out hb12)).mono ?_
  rintro e w13 ⟨rfl, hs13⟩
  have hb13 := below_next hb12 hs13
  clear hs13 hb12
  go_wp2_with fail
  refine (kof ⟨#[97, 45, 45, 98]⟩ 7 w13).mono ?_
  rintro e w14 ⟨rfl, hs14⟩
  have hb14 := below_next hb13 hs14
  clear hs14 hb13
  go_wp2_with fail
  refine (kof ⟨#[97, 45, 45, 98]⟩ 7 w14).mono ?_
  rintro e w15 ⟨rfl, hs15⟩
  have hb15 := below_next hb14 hs15
  clear hs15 hb14
  go_wp2_with fail
  refine (kC2 m w15 (carry HM.out hb15)).mono ?_
  rintro e w16 ⟨rfl, hs16⟩
  have hb16 := below_next hb15 hs16
  clear hs16 hb15
  go_wp2_with fail
  refine (kof ⟨#[]⟩ 2 w16).mono ?_
  rintro e w17 ⟨rfl, hs17⟩
  have hb17 := below_next hb16 hs17
  clear hs17 hb16
  go_wp2_with fail
  refine (kof ⟨#[]⟩ 2 w17).mono ?_
  rintro e w18 ⟨rfl, hs18⟩
  have hb18 := below_next hb17 hs18
  clear hs18 hb17
  go_wp2_with fail
  refine (kD1 m w18 (carry HM.out hb18)).mono ?_
  rintro e w19 ⟨rfl, hs19⟩
  have hb19 := below_next hb18 hs19
  clear hs19 hb18
  go_wp2_with fail
  refine (kof ⟨#[97, 93, 93, 98, 93]⟩ 8 w19).mono ?_
  rintro e w20 ⟨rfl, hs20⟩
  have hb20 := below_next hb19 hs20
  clear hs20 hb19
  go_wp2_with fail
  refine (kof ⟨#[97, 93, 93, 98, 93]⟩ 8 w20).mono ?_
  rintro e w21 ⟨rfl, hs21⟩
  have hb21 := below_next hb20 hs21
  clear hs21 hb20
  go_wp2_with fail
  refine (kT1 m w21 (HC.out.below hb21) (carry HM.out hb21)).mono ?_
  rintro e w22 ⟨pa, pn, pc, rfl, hs22⟩
  unfold tokA
  have hb22 := below_next hb21 hs22
  clear hs22 hb21
  go_wp2_with fail
  obtain ⟨w22a, hwa⟩ : ∃ x, x = w22.alloc (.cells #[.int .i64 2, .string ⟨#[98, 114]⟩, .bool false, .string ⟨#[]⟩, .bool false, .string ⟨#[]⟩, .bool false, .bool false, .slice pa pn pc, .bool false, .string ⟨#[]⟩, .int .i32 0] 35) := ⟨_, rfl⟩
  rw [← hwa]
  replace hb22 : Below w.heap.size w w22a := by rw [hwa]; exact below_alloc hb22 _
  clear hwa
  refine (kL1 w22a).mono ?_
  rintro e w23 ⟨rfl, hs23⟩
  have hb23 := below_next hb22 hs23
  clear hs23 hb22
  go_wp2_with fail
  refine (kL2 w23).mono ?_
  rintro e w24 ⟨rfl, hs24⟩
  have hb24 := below_next hb23 hs24
  clear hs24 hb23
  go_wp2_with fail
  refine (kO1 m w24 (carry HM.out hb24)).mono ?_
  rintro e w25 ⟨qhn, qpub, rfl, hs25⟩
  have hb25 := below_next hb24 hs25
  clear hs25 hb24
  go_wp2_with fail
  obtain ⟨w25a, hwa⟩ : ∃ x, x = w25.alloc (.cells #[.int .i64 1, .string ⟨#[97]⟩, .bool qhn, .string qpub, .bool false, .string ⟨#[121]⟩, .bool true, .bool false, .slice none 0 0, .bool false, .string ⟨#[]⟩, .int .i32 0] 35) := ⟨_, rfl⟩
  rw [← hwa]
  replace hb25 : Below w.heap.size w w25a := by rw [hwa]; exact below_alloc hb25 _
  clear hwa
  refine (kS1 m w25a (carry HM.out hb25)).mono ?_
  rintro e w26 ⟨rfl, hs26⟩
  have hb26 := below_next hb25 hs26
  clear hs26 hb25
  go_wp2_with fail
  refine (kof ⟨#[60, 33, 45, 45, 60, 115, 99, 114, 105, 112, 116, 62, 60, 47, 115, 99, 114, 105, 112, 116, 62]⟩ 21 w26).mono ?_
  rintro e w27 ⟨rfl, hs27⟩
  have hb27 := below_next hb26 hs27
  clear hs27 hb26
  go_wp2_with fail
  refine (kof ⟨#[60, 33, 45, 45, 60, 115, 99, 114, 105, 112, 116, 62, 60, 47, 115, 99, 114, 105, 112, 116, 62]⟩ 21 w27).mono ?_
  rintro e w28 ⟨rfl, hs28⟩
  have hb28 := below_next hb27 hs28
  clear hs28 hb27
  go_wp2_with fail
  refine (kA1 m w28 (HC.out.below hb28) (carry HM.out hb28)).mono ?_
  rintro e w29 ⟨rfl, hs29⟩
  have hb29 := below_next hb28 hs29
  clear hs29 hb28
  go_wp2_with fail
  refine (kof ⟨#[97, 60, 60, 47, 98, 62]⟩ 9 w29).mono ?_
  rintro e w30 ⟨rfl, hs30⟩
  have hb30 := below_next hb29 hs30
  clear hs30 hb29
  go_wp2_with fail
  refine (kof ⟨#[97, 60, 60, 47, 98, 62]⟩ 9 w30).mono ?_
  rintro e w31 ⟨rfl, hs31⟩
  have hb31 := below_next hb30 hs31
  clear hs31 hb30
  go_wp2_with fail
  go_ret
  exact ⟨rfl, hb31⟩
end Go.Proofs.YtbjnolihaacahaaGreatDoor

namespace Go.Proofs.YtbjnolihaacahaaGreatDoor
open Go.RowKit Go.Shelf Go.Lib
set_option maxHeartbeats 4000000
set_option maxRecDepth 100000

/-- Where script data ends, the raw text ends, or there is nothing left. -/
theorem scF_end (last : List UInt8) : ∀ (n m d : Nat) (t : List UInt8), t.length < n → scF last n m d t = [] ∨ closesL last (scF last n m d t) = true
  | 0, _, _, _, h => absurd h (Nat.not_lt_zero _)
  | n + 1, _, _, [], _ => .inl rfl
  | n + 1, m, d, b :: t, h => by
    have hl : t.length < n := by simp at h; omega
    have hd : ∀ k, (t.drop k).length < n := fun k => by rw [List.length_drop]; omega
    unfold scF
    by_cases h1 : m < 2 ∧ closesL last (b :: t) = true
    · rw [if_pos h1]; exact .inr h1.2
    · rw [if_neg h1]
      by_cases h2 : m = 0
      · rw [if_pos h2]
        split
        · exact scF_end last n _ _ _ (hd 3)
        · exact scF_end last n _ _ _ hl
      · rw [if_neg h2]
        by_cases h3 : b = 45
        · rw [if_pos h3]; exact scF_end last n _ _ _ hl
        · rw [if_neg h3]
          by_cases h4 : b = 62 ∧ d = 2
          · rw [if_pos h4]; exact scF_end last n _ _ _ hl
          · rw [if_neg h4]
            by_cases h5 : b = 60 ∧ (if m = 1 then 0 < wordN t else t.head? = some 47)
            · rw [if_pos h5]
              cases hx : (t.drop (m - 1)).drop (wordN (t.drop (m - 1))) with
              | nil => exact .inl rfl
              | cons c r =>
                have hr : (c :: r).length < n := by rw [← hx, List.drop_drop]; exact hd _
                simp only
                split
                · exact scF_end last n _ _ _ (by simp at hr; omega)
                · exact scF_end last n _ _ _ hr
            · rw [if_neg h5]; exact scF_end last n _ _ _ hl
theorem stopL_ge (last : List UInt8) : ∀ (t : List UInt8) (k : Nat), t.drop k = [] ∨ closesL last (t.drop k) = true → (t.drop k).length ≤ (stopL last t).length
  | [], k, _ => by simp
  | b :: t, 0, h => by
    rcases h with h | h
    · cases h
    · rw [List.drop_zero] at h ⊢
      unfold stopL
      rw [if_pos h]
      exact Nat.le_refl _
  | b :: t, k + 1, h => by
    rw [List.drop_succ_cons] at h ⊢
    unfold stopL
    split
    · have := List.length_drop (i := k) (l := t)
      simp only [List.length_cons]; omega
    · exact stopL_ge last t k h
/-- Raw text ends no later than script data. -/
theorem later {last t : List UInt8} {M N : Nat} (hM : stopL last t = t.drop M) (hN : scL last 0 0 t = t.drop N) (hm : M ≤ t.length) : M ≤ N := by
  have h := scF_end last (t.length + 1) 0 0 t (Nat.lt_succ_self _)
  rw [show scF last (t.length + 1) 0 0 t = scL last 0 0 t from rfl, hN] at h
  have h2 := stopL_ge last t N h
  rw [hM, List.length_drop, List.length_drop] at h2
  omega
theorem nulL_id : ∀ l : List UInt8, (∀ x ∈ l, x ≠ 0) → nulL l = l
  | [], _ => rfl
  | b :: t, h => by
    have hb : b ≠ 0 := h b (by simp)
    rw [nulL_cons, nulL_id t (fun x hx => h x (by simp [hx]))]
    have : nul1 b = [b] := by unfold nul1; exact if_neg hb
    rw [this]
    rfl

theorem lawLater (s : ByteArray) (a : Int) (last : ByteArray) (m : Int) (w : World) (hm : w.cell? ⟨1, 0, none⟩ = some (.int .i64 m)) (hc : CtlW w) :
    Calls Tryz.prog 10 #[.string s, .int .i64 a, .string last] w fun e w' => e = .returned (.bool true) ∧ Below w.heap.size w w' := by
  have HM := Lib.hid hm
  have HC := Lib.hid hc
  have HS1 := Lib.hid (small02 s)
  have HS2 := Lib.hid (small02 last)
  have HK := Lib.hid (known02 m w hc hm)
  clear hm hc
  by_cases h1 : s.size ≤ 4096
  · rw [decide_eq_true h1] at HS1
    by_cases h2 : last.size ≤ 4096
    · rw [decide_eq_true h2] at HS2
      have HH := Lib.hid (rHas s 0 (by unfold maxLen; omega))
      obtain ⟨z, hz⟩ : ∃ z, z = allB (fun b => !(b == (0 : Int))) s := ⟨_, rfl⟩
      rw [← hz] at HH
      have HZ := Lib.hid hz
      have H1 := Lib.hid h1
      have H2 := Lib.hid h2
      clear hz h1 h2
      cases z
      · go_enter Tryz.func10, Tryz.ntmps10
        go_wp2_with fail
        refine (HS1.out w).mono ?_
        rintro e w' ⟨rfl, rfl⟩
        go_wp2_with fail
        refine (HS2.out w').mono ?_
        rintro e w2 ⟨rfl, rfl⟩
        go_wp2_with fail
        refine (HH.out w2).mono ?_
        rintro e w3 ⟨rfl, rfl⟩
        go_wp2_with fail
        refine HK.out.mono ?_
        rintro e w4 ⟨rfl, hb⟩
        go_wp2_with fail
        go_ret
        exact ⟨rfl, hb⟩
      · go_enter Tryz.func10, Tryz.ntmps10
        go_wp2_with fail
        refine (HS1.out w).mono ?_
        rintro e w' ⟨rfl, rfl⟩
        go_wp2_with fail
        refine (HS2.out w').mono ?_
        rintro e w2 ⟨rfl, rfl⟩
        go_wp2_with fail
        refine (HH.out w2).mono ?_
        rintro e w3 ⟨rfl, rfl⟩
        go_wp2_with fail
        have HRa := Lib.hid (rawtext s a last m (by have := H1.out; omega) w3 HM.out)
        have HSc := Lib.hid (fun W hm => scriptC s a last m (by have := H1.out; omega) W hm)
        have HPl := Lib.hid (fun W hm => plaintext s a m (by have := H1.out; omega) W hm)
        have hk := clip_le s a
        have ek : min (max a 0) (s.size : Int) = (clip s a : Nat) := by unfold clip; omega
        rw [ek]
        clear ek
        unfold tlS at HRa HPl
        generalize clip s a = k at HRa HSc HPl hk ⊢
        have hnz : ∀ x ∈ s.data.toList.drop k, x ≠ 0 := by
          intro x hx e
          have hz := HZ.out.symm
          unfold allB at hz
          have := List.all_eq_true.1 hz x (List.mem_of_mem_drop hx)
          rw [e] at this
          simp at this
        have HNZ := Lib.hid hnz
        have HKS := Lib.hid hk
        clear hnz hk
        refine HRa.out.mono ?_
        rintro e w4 ⟨N1, hst, hN1, rfl, hb4⟩
        obtain ⟨V1, hV1⟩ : ∃ V1, V1 = bl (nulL ((s.data.toList.drop k).take N1)) := ⟨_, rfl⟩
        rw [← hV1]
        have HV1 := Lib.hid hV1
        have HST := Lib.hid hst
        have HN1 := Lib.hid hN1
        clear hV1 hst hN1
        go_wp2_with fail
        refine (kof V1 _ w4).mono ?_
        rintro e w5 ⟨rfl, hs5⟩
        have hb5 := below_next hb4 hs5
        clear hs5 hb4
        go_wp2_with fail
        refine (HSc.out w5 (carry HM.out hb5)).mono ?_
        rintro e w6 ⟨N2, hsc, hN2, rfl, hs6⟩
        have hb6 := below_next hb5 hs6
        clear hs6 hb5
        obtain ⟨V2, hV2⟩ : ∃ V2, V2 = bl (nulL ((s.data.toList.drop k).take N2)) := ⟨_, rfl⟩
        rw [← hV2]
        have HV2 := Lib.hid hV2
        have HSCR := Lib.hid hsc
        have HN2 := Lib.hid hN2
        clear hV2 hsc hN2
        go_wp2_with fail
        refine (kof V2 _ w6).mono ?_
        rintro e w7 ⟨rfl, hs7⟩
        have hb7 := below_next hb6 hs7
        clear hs7 hb6
        have hle : N1 ≤ N2 := later HST.out HSCR.out (by have := HN1.out; rw [List.length_drop, size_list]; omega)
        have HLE := Lib.hid hle
        clear hle
        go_wp2_with fail
        have ev1 : V1 = s.extract k (k + N1) := by
          rw [HV1.out]
          have hx := ext_take s k N1 HN1.out
          rw [nulL_id _ (fun x hx => HNZ.out x (List.mem_of_mem_take hx)), ← hx]
          rfl
        have ev2 : V2 = s.extract k (k + N2) := by
          rw [HV2.out]
          have hx := ext_take s k N2 HN2.out
          rw [nulL_id _ (fun x hx => HNZ.out x (List.mem_of_mem_take hx)), ← hx]
          rfl
        obtain ⟨w8, hw8⟩ : ∃ x, x = (w7.alloc (.cells #[.string V1, .int .i64 (k + N1)] 25)).alloc (.cells #[.string V2, .int .i64 (k + N2)] 25) := ⟨_, rfl⟩
        rw [← hw8]
        have t1 : w8.heap[w7.heap.size]? = some (.cells #[.string V1, .int .i64 (k + N1)] 25 (0, 0)) := by
          rw [hw8]
          have hA : (w7.alloc (.cells #[.string V1, .int .i64 (k + N1)] 25)).heap[w7.heap.size]? = some (.cells #[.string V1, .int .i64 (k + N1)] 25 (0, 0)) := by
            show (w7.heap.push _)[w7.heap.size]? = _; exact Array.getElem?_push_size
          exact heap_below hA (below_alloc (Below.refl _ _) _)
        have t2 : w8.heap[w7.heap.size + 1]? = some (.cells #[.string V2, .int .i64 (k + N2)] 25 (0, 0)) := by
          rw [hw8]
          have e : w7.heap.size + 1 = (w7.alloc (.cells #[.string V1, .int .i64 (k + N1)] 25)).heap.size := by show _ = (w7.heap.push _).size; rw [Array.size_push]
          rw [e]
          show ((w7.alloc _).heap.push _)[_]? = _; exact Array.getElem?_push_size
        have hb8 : Below w3.heap.size w3 w8 := by rw [hw8]; exact below_alloc (below_alloc hb7 _) _
        clear hw8 hb7
        have c10 : w8.cell? ⟨w7.heap.size, 0, none⟩ = some (.string V1) := heap_cell t1 0
        have c11 : w8.cell? ⟨w7.heap.size, 1, none⟩ = some (.int .i64 (k + N1)) := heap_cell t1 1
        have c20 : w8.cell? ⟨w7.heap.size + 1, 0, none⟩ = some (.string V2) := heap_cell t2 0
        have c21 : w8.cell? ⟨w7.heap.size + 1, 1, none⟩ = some (.int .i64 (k + N2)) := heap_cell t2 1
        have HB8 := Lib.hid hb8
        have EV1 := Lib.hid ev1
        have EV2 := Lib.hid ev2
        clear t1 t2 hb8 ev1 ev2
        generalize w7.heap.size = pb at c10 c11 c20 c21 ⊢
        have q1 : (N1 : Int) ≤ N2 := by have := HLE.out; omega
        have q2 : (k : Int) + N2 ≤ s.size := by have := HN2.out; omega
        have q3 : (s.size : Int) ≤ 4096 := by have := H1.out; omega
        obtain ⟨A1, hA1⟩ : ∃ A1 : Int, A1 = k + N1 := ⟨_, rfl⟩
        obtain ⟨A2, hA2⟩ : ∃ A2 : Int, A2 = k + N2 := ⟨_, rfl⟩
        obtain ⟨K0, hK0⟩ : ∃ K0 : Int, K0 = k := ⟨_, rfl⟩
        have d1 : decide (A1 < K0) = false := decide_eq_false (by omega)
        have d2 : decide (A2 < A1) = false := decide_eq_false (by omega)
        have d3 : decide ((s.size : Int) < A2) = false := decide_eq_false (by omega)
        rw [← hA1] at c11
        rw [← hA2] at c21
        rw [← hA1, ← hA2, ← hK0]
        have g1 : (0 : Int) ≤ K0 := by omega
        have g2 : K0 ≤ A1 := by omega
        have g3 : A1 ≤ s.size := by omega
        have g4 : K0 ≤ A2 := by omega
        have g5 : A2 ≤ s.size := by omega
        have s1 : (V1.toList == (s.extract K0.toNat A1.toNat).toList) = true := by
          rw [EV1.out, show K0.toNat = k by omega, show A1.toNat = k + N1 by omega]; exact beq_self_eq_true _
        have s2 : (V2.toList == (s.extract K0.toNat A2.toNat).toList) = true := by
          rw [EV2.out, show K0.toNat = k by omega, show A2.toNat = k + N2 by omega]; exact beq_self_eq_true _
        have HA1 := Lib.hid hA1
        have HA2 := Lib.hid hA2
        have HK0 := Lib.hid hK0
        clear hA1 hA2 hK0 q1 q2 q3
        go_quiet (fail)
        clear s1 s2 d1 d2 d3
        obtain ⟨V3, hV3⟩ : ∃ V3, V3 = bl (nulL (s.data.toList.drop k)) := ⟨_, rfl⟩
        rw [← hV3] at HPl
        have s3 : (V3.toList == (s.extract K0.toNat s.size).toList) = true := by
          have hx := ext_take s k (s.size - k) (by have := HKS.out; omega)
          rw [show k + (s.size - k) = s.size by have := HKS.out; omega, List.take_of_length_le (by rw [List.length_drop, size_list]; omega)] at hx
          rw [hV3, nulL_id _ HNZ.out, ← hx, HK0.out]
          exact beq_self_eq_true _
        have HP := Lib.hid (fun W (hb : Below w3.heap.size w3 W) => (HPl.out W (carry HM.out hb)).mono (R' := fun e w' => e = .returned (.tuple #[.string V3, .int .i64 s.size]) ∧ Below w3.heap.size w3 w') (by rintro e w' ⟨rfl, h⟩; exact ⟨rfl, below_next hb h⟩))
        have HO := Lib.hid (fun V n W (hb : Below w3.heap.size w3 W) => (kof V n W).mono (R' := fun e w' => e = .returned (.agg #[.string V, .int .i64 n]) ∧ Below w3.heap.size w3 w') (by rintro e w' ⟨rfl, h⟩; exact ⟨rfl, below_next hb h⟩))
        have HN := Lib.hid (fun W (hb : Below w3.heap.size w3 W) => (known02 m W (HC.out.below hb) (carry HM.out hb)).mono (R' := fun e w' => e = .returned (.bool true) ∧ Below w3.heap.size w3 w') (by rintro e w' ⟨rfl, h⟩; exact ⟨rfl, below_next hb h⟩))
        clear hV3 c10 c11 c20 c21 HPl
        have g6 : K0 ≤ s.size := by omega
        go_wp2_with fail
        go_region_held3 (fun w' => Below w3.heap.size w3 w')
          (first | exact Below.drew (_root_.Go.below_drewN HB8.out _) | assumption | go_keep)
          (first | (go_at_call 37; refine (HP.out _ (by first | assumption | exact Below.drew (by assumption))).mono ?_; rintro e w9 ⟨rfl, c⟩)
                 | (go_at_call 15; refine (HO.out _ _ _ (by first | assumption | exact Below.drew (by assumption))).mono ?_; rintro e w9 ⟨rfl, c⟩)
                 | (go_at_call 14; refine (HN.out _ (by first | assumption | exact Below.drew (by assumption))).mono ?_; rintro e w9 ⟨rfl, c⟩))
        go_wp2_with fail
        go_ret
        exact ⟨rfl, by assumption⟩
    · rw [decide_eq_false h2] at HS2
      clear h1 h2
      go_enter Tryz.func10, Tryz.ntmps10
      go_wp2_with fail
      refine (HS1.out w).mono ?_
      rintro e w' ⟨rfl, rfl⟩
      go_wp2_with fail
      refine (HS2.out w').mono ?_
      rintro e w2 ⟨rfl, rfl⟩
      go_wp2_with fail
      refine HK.out.mono ?_
      rintro e w4 ⟨rfl, hb⟩
      go_wp2_with fail
      go_ret
      exact ⟨rfl, hb⟩
  · rw [decide_eq_false h1] at HS1
    clear h1
    go_enter Tryz.func10, Tryz.ntmps10
    go_wp2_with fail
    refine (HS1.out w).mono ?_
    rintro e w' ⟨rfl, rfl⟩
    go_wp2_with fail
    refine HK.out.mono ?_
    rintro e w4 ⟨rfl, hb⟩
    go_wp2_with fail
    go_ret
    exact ⟨rfl, hb⟩
end Go.Proofs.YtbjnolihaacahaaGreatDoor

namespace Go.Proofs.YtbjnolihaacahaaGreatDoor
open Go.ChangeShapes Go.WideShapes Go.ChangeAt Go.RowKit
set_option maxRecDepth 100000

def laidC : List (String × DataW Unit) := [("unicode/utf8.acceptRanges", Rows.laid_unicode_utf8_acceptRanges), ("thicket/text.controls", Rows.laid_thicket_text_controls), ("unicode/utf8.first", Rows.laid_unicode_utf8_first)]
theorem doorC_os (os : Os) : (World.laidAll Tryz.prog os laidC).os = os := World.laidAll_os _ _ _
theorem doorC_met (os : Os) (args : Array Value) : laidMetH Tryz.prog laidC ((World.laidAll Tryz.prog os laidC).forCall (fun _ _ => 0) ⟨#[], args, []⟩).memory := by
  rw [MakeChecks.laidMetH_plain _ _ _ (by kernel_rfl)]
  exact laidMet_laidAll _ (by kernel_rfl) (by kernel_rfl)

theorem gCtl : Tryz.prog.globalNamed "thicket/text.controls" = some 0 := by kernel_rfl
theorem tCtl : (Tryz.prog.globals[0]?).map (·.type) = some 126 := by kernel_rfl
theorem cCtl : Tryz.prog.cellsOf 21 = 1 := by kernel_rfl
theorem ctlD : (Rows.laid_thicket_text_controls : DataW Unit) = .agg (ctlT.map fun z => .lit (.int .i32 z)) := rfl

theorem ctl_of_laid {W : World} (h : laidMetH Tryz.prog laidC W) : CtlW W := by
  rw [MakeChecks.laidMetH_plain _ _ _ (by kernel_rfl)] at h
  obtain ⟨ps, ⟨g0, t0, cs0, f0, p0, q0, hg0, ht0, hv0, hd0, ⟨g1, t1, cs1, f1, p1, q1, hg1, ht1, hv1, hd1, _, _⟩, _⟩, _⟩ := h
  obtain rfl := Option.some.inj (gCtl.symm.trans hg1)
  obtain rfl := Option.some.inj (tCtl.symm.trans ht1)
  obtain ⟨xs, m1, rfl, hx1, hlen, hn, hel⟩ := DataW.trod_array Tryz.underlying126 hd1
  intro k hk
  have h1 := hel k hk
  rw [cCtl, Nat.mul_one] at h1
  have hxk : xs[k]? = some (xs[k]'(by omega)) := List.getElem?_eq_getElem (by omega)
  rw [hxk] at h1
  obtain ⟨z, e1, e2, _⟩ := DataW.trod_int Tryz.underlying21 h1
  have hz : z = ctlT.getD k 0 := by
    have hx2 := congrArg Prod.fst hx1
    rw [ctlD] at hx2
    simp only [DataW.agg.injEq] at hx2
    have h3 : (ctlT.map fun z => (DataW.lit (.int .i32 z) : DataW Unit))[k]? = (xs.map (·.1))[k]? := by rw [hx2]
    rw [List.getElem?_map, List.getElem?_map, hxk, e2] at h3
    have hk2 : k < ctlT.length := hk
    rw [List.getElem?_eq_getElem hk2] at h3
    simp at h3
    rw [List.getD_eq_getElem?_getD, List.getElem?_eq_getElem hk2]
    simpa using h3.symm
  rw [World.var?_cell hg1 hv1 k, ← hz]
  have h4 : (cs1.toList.drop k)[0]? = some (.int .i32 z) := by
    have := congrArg (fun l => l[0]?) e1
    simp only [List.getElem?_take] at this
    simpa using this
  rw [List.getElem?_drop, Nat.add_zero, Array.getElem?_toList] at h4
  exact h4

/-- A row whose start is said to hold more, with the shapes and the listed variables at hand. -/
theorem handedC {H : Type} {enc : TypeId × Value → H} {a : Assume} {os : Os} {f : FuncId} {fn : Func} {s : ChangeSpec} {conds : List PathCond} {apart fresh handsOn again : Bool}
    (own : ownKnob Tryz.prog.godebug = none) (started : os.Started) (noInit : Tryz.prog.inits.idxOf? f = none) (hfn : Tryz.prog.funcs[f]? = some fn)
    (witness : ∃ (w : World) (tape : Tape) (i : Input), w.os = os ∧ (w.forCall tape i).Shaped Tryz.prog ∧ i.vars = [] ∧ Input.okWide Tryz.prog (w.forCall tape i) .any w.heap.size f i ∧
      ((s.pre enc Tryz.prog fn conds apart (w.forCall tape i).memory i.args ∧ laidMetH Tryz.prog laidC (w.forCall tape i).memory) ∧ sizedMet enc Tryz.prog fn (OpenSpec.ofChange s) apart (w.forCall tape i).memory i.args) ∧ a.holds Tryz.prog (lone (Frame.enter Tryz.prog f i.args .normal) [] (w.forCall tape i)))
    (walk : ∀ (W : World) (base : Nat) (args : Array Value) (ds gs : List (DataW H)) (before : List MemPlace),
      (∀ (j : Nat) t v, fn.params[j]? = some t → args[j]? = some v → Value.okWide Tryz.prog W .any base t v) →
      DataW.Whole enc Tryz.prog fn.params.toList s.vars apart W args.toList ds gs before → W.ShapedOpen Tryz.prog → CtlW W →
      Calls Tryz.prog f args W fun e W' => ∃ v, e = .returned v ∧ s.post enc Tryz.prog fn apart fresh handsOn again W args v W') :
    ReturnsInHanded a Tryz.checked os f .any (fun w args => (s.pre enc Tryz.prog fn conds apart w args ∧ laidMetH Tryz.prog laidC w) ∧ sizedMet enc Tryz.prog fn (OpenSpec.ofChange s) apart w args) (s.post enc Tryz.prog fn apart fresh handsOn again) := by
  refine returnsInHanded_of_calls (C := Tryz.checked) own started (by exact noInit) witness ?_
  intro w tape i _ hsh _ hok hpre _
  obtain ⟨_, _, _, fn', hfn', _, _, _, _, hval⟩ := hok
  obtain rfl : fn' = fn := Option.some.inj (hfn'.symm.trans hfn)
  obtain ⟨⟨⟨ds, gs, before, hw, _⟩, hX⟩, _⟩ := hpre
  refine (walk (w.forCall tape i) w.heap.size i.args ds gs before hval (DataW.Whole.of_heap (w' := w.forCall tape i) (by rfl) hw) hsh (ctl_of_laid (laidMetH.of_heap (w' := w.forCall tape i) (by rfl) hX))).mono fun e W' ⟨v, he, hp⟩ => ?_
  subst he
  exact ChangeSpec.post_blind hp
end Go.Proofs.YtbjnolihaacahaaGreatDoor
