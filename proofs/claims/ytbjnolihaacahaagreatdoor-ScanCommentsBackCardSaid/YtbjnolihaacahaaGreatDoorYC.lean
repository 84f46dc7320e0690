/-
  The scanner's examples: what the readers answer at them.
  The scanner's examples: the rows that each statement checks.
  Data of comments is read back; what any comment is read as is such data. No program in sight.
  The document's own prefix test.
  ScanCommentsBack: the data of a comment is read back, and what any comment is read as is such data.
  The frame of the rows that list the table of the controls as well.
-/
import Derived.Test.YtbjnolihaacahaaGreatDoorY35
import Derived.Test.YtbjnolihaacahaaGreatDoorY36
import Derived.Test.YtbjnolihaacahaaGreatDoorY37
import Derived.Test.YtbjnolihaacahaaGreatDoorY38
import Derived.Test.YtbjnolihaacahaaGreatDoorY43
import Derived.Test.YtbjnolihaacahaaGreatDoorY51
import Derived.Test.YtbjnolihaacahaaGreatDoorY40
import Derived.Test.YtbjnolihaacahaaGreatDoorY26
import Derived.Test.YtbjnolihaacahaaGreatDoorY02
import Derived.Test.YtbjnolihaacahaaGreatDoorY30
import Derived.Test.YtbjnolihaacahaaGreatDoorY32
import Derived.Test.YtbjnolihaacahaaGreatDoorY31
namespace Go.Proofs.YtbjnolihaacahaaGreatDoor
open Go.RowKit Go.Shelf Go.Lib
set_option maxHeartbeats 2000000
set_option maxRecDepth 100000

theorem drop_one {l : List UInt8} {N n : Nat} {r : List UInt8} (h : l.drop N = r) (hl : l.length = n) (hn : N ≤ n) : N = n - r.length := by
  have := congrArg List.length h
  rw [List.length_drop, hl] at this
  omega
theorem kR1 (m : Int) (w : World) (hc : CtlW w) (hm : w.cell? ⟨1, 0, none⟩ = some (.int .i64 m)) : Calls Tryz.prog 16 #[.string ⟨#[110, 111, 116, 105, 116, 59]⟩, .int .i64 0, .bool false] w fun e w' => e = .returned (.tuple #[.string ⟨#[194, 172]⟩, .int .i64 3]) ∧ Below w.heap.size w w' := by
  refine (referenceC lgL (Lib.hid lgOk) _ 0 false m (by decide) w hc hm).mono ?_
  rintro e w' ⟨V, N, rfl, hV, hN, _, hb⟩
  rw [show tlS ⟨#[110, 111, 116, 105, 116, 59]⟩ 0 = sNotit from rfl, ref_notF] at hV hN
  obtain rfl : V = ⟨#[194, 172]⟩ := list_bytes _ _ hV
  subst hN
  exact ⟨rfl, hb⟩
theorem kR2 (m : Int) (w : World) (hc : CtlW w) (hm : w.cell? ⟨1, 0, none⟩ = some (.int .i64 m)) : Calls Tryz.prog 16 #[.string ⟨#[110, 111, 116, 105, 116, 59]⟩, .int .i64 0, .bool true] w fun e w' => e = .returned (.tuple #[.string ⟨#[38, 110, 111, 116]⟩, .int .i64 3]) ∧ Below w.heap.size w w' := by
  refine (referenceC lgL (Lib.hid lgOk) _ 0 true m (by decide) w hc hm).mono ?_
  rintro e w' ⟨V, N, rfl, hV, hN, _, hb⟩
  rw [show tlS ⟨#[110, 111, 116, 105, 116, 59]⟩ 0 = sNotit from rfl, ref_notT] at hV hN
  obtain rfl : V = ⟨#[38, 110, 111, 116]⟩ := list_bytes _ _ hV
  subst hN
  exact ⟨rfl, hb⟩
theorem kR3 (m : Int) (w : World) (hc : CtlW w) (hm : w.cell? ⟨1, 0, none⟩ = some (.int .i64 m)) : Calls Tryz.prog 16 #[.string ⟨#[35, 120, 103]⟩, .int .i64 0, .bool false] w fun e w' => e = .returned (.tuple #[.string ⟨#[38, 35, 120]⟩, .int .i64 2]) ∧ Below w.heap.size w w' := by
  refine (referenceC lgL (Lib.hid lgOk) _ 0 false m (by decide) w hc hm).mono ?_
  rintro e w' ⟨V, N, rfl, hV, hN, _, hb⟩
  rw [show tlS ⟨#[35, 120, 103]⟩ 0 = [35, 120, 103] from rfl, ref_xg] at hV hN
  obtain rfl : V = ⟨#[38, 35, 120]⟩ := list_bytes _ _ hV
  subst hN
  exact ⟨rfl, hb⟩
theorem kR4 (m : Int) (w : World) (hc : CtlW w) (hm : w.cell? ⟨1, 0, none⟩ = some (.int .i64 m)) : Calls Tryz.prog 16 #[.string ⟨#[35, 120, 56, 48]⟩, .int .i64 0, .bool true] w fun e w' => e = .returned (.tuple #[.string ⟨#[226, 130, 172]⟩, .int .i64 4]) ∧ Below w.heap.size w w' := by
  refine (referenceC lgL (Lib.hid lgOk) _ 0 true m (by decide) w hc hm).mono ?_
  rintro e w' ⟨V, N, rfl, hV, hN, _, hb⟩
  rw [show tlS ⟨#[35, 120, 56, 48]⟩ 0 = [35, 120, 56, 48] from rfl, ref_x80] at hV hN
  obtain rfl : V = ⟨#[226, 130, 172]⟩ := list_bytes _ _ hV
  subst hN
  exact ⟨rfl, hb⟩
theorem kC1 (m : Int) (w : World) (hm : w.cell? ⟨1, 0, none⟩ = some (.int .i64 m)) : Calls Tryz.prog 18 #[.string ⟨#[97, 45, 45, 98, 45, 45, 62, 99]⟩, .int .i64 0] w fun e w' => e = .returned (.tuple #[.string ⟨#[97, 45, 45, 98]⟩, .int .i64 7]) ∧ Below w.heap.size w w' := by
  refine (commentC _ 0 m (by decide) w hm).mono ?_
  rintro e w' ⟨rfl, hb⟩
  rw [show tlS ⟨#[97, 45, 45, 98, 45, 45, 62, 99]⟩ 0 = [97, 45, 45, 98, 45, 45, 62, 99] from rfl, com_k1]
  exact ⟨rfl, hb⟩
theorem kC2 (m : Int) (w : World) (hm : w.cell? ⟨1, 0, none⟩ = some (.int .i64 m)) : Calls Tryz.prog 18 #[.string ⟨#[45, 62, 97]⟩, .int .i64 0] w fun e w' => e = .returned (.tuple #[.string ⟨#[]⟩, .int .i64 2]) ∧ Below w.heap.size w w' := by
  refine (commentC _ 0 m (by decide) w hm).mono ?_
  rintro e w' ⟨rfl, hb⟩
  rw [show tlS ⟨#[45, 62, 97]⟩ 0 = [45, 62, 97] from rfl, com_k2]
  exact ⟨rfl, hb⟩
theorem kD1 (m : Int) (w : World) (hm : w.cell? ⟨1, 0, none⟩ = some (.int .i64 m)) : Calls Tryz.prog 22 #[.string ⟨#[97, 93, 93, 98, 93, 93, 93, 62, 99]⟩, .int .i64 0] w fun e w' => e = .returned (.tuple #[.string ⟨#[97, 93, 93, 98, 93]⟩, .int .i64 8]) ∧ Below w.heap.size w w' := by
  refine (cdata _ 0 m (by decide) w hm).mono ?_
  rintro e w' ⟨rfl, hb⟩
  rw [show tlS ⟨#[97, 93, 93, 98, 93, 93, 93, 62, 99]⟩ 0 = [97, 93, 93, 98, 93, 93, 93, 62, 99] from rfl, show utL [93, 93, 62] [97, 93, 93, 98, 93, 93, 93, 62, 99] = ([97, 93, 93, 98, 93], 8) from by decide +kernel]
  exact ⟨rfl, hb⟩
theorem kT1 (m : Int) (w : World) (hc : CtlW w) (hm : w.cell? ⟨1, 0, none⟩ = some (.int .i64 m)) : Calls Tryz.prog 45 #[.string ⟨#[66, 114, 47, 32, 62, 120]⟩, .int .i64 0, .bool false] w fun e w' =>
    ∃ pa pn pc, e = .returned (.tuple #[tokA 2 ⟨#[98, 114]⟩ (.slice pa pn pc) false, .bool true, .int .i64 5]) ∧ Below w.heap.size w w' := by
  refine (tagC lgL (Lib.hid lgOk) _ 0 false m (by decide) w hc hm).mono ?_
  rintro e w' ⟨tk, cl, N, rfl, hb, _, hN, hor⟩
  rw [show tlS ⟨#[66, 114, 47, 32, 62, 120]⟩ 0 = [66, 114, 47, 32, 62, 120] from rfl, show tgRest [66, 114, 47, 32, 62, 120] = [47, 32, 62, 120] from by decide +kernel, tag_k, show tgName [66, 114, 47, 32, 62, 120] = [98, 114] from by decide +kernel] at hor
  rcases hor with ⟨_, _, _, h⟩ | ⟨rfl, acc, sc, v, h, hrow, _, rfl⟩
  · cases h
  · injection h with h
    injection h with h1 h
    injection h with h2 h3
    obtain rfl : N = 5 := drop_one h3.symm (n := 6) rfl hN
    subst h1 h2
    obtain ⟨pa, pn, pc, rfl⟩ : ∃ pa pn pc, v = .slice pa pn pc := by
      rcases hrow.2 with ⟨rfl, _⟩ | ⟨g, cap, cur, rfl, _⟩
      · exact ⟨_, _, _, rfl⟩
      · exact ⟨_, _, _, rfl⟩
    exact ⟨pa, pn, pc, rfl, hb⟩
theorem kL1 (w : World) : Calls Tryz.prog 31 #[.string ⟨#[60, 47, 104, 49, 62]⟩, .int .i64 0, .string ⟨#[104, 49]⟩] w fun e w' => e = .returned (.bool false) ∧ Below w.heap.size w w' := by
  have h := closesC ⟨#[60, 47, 104, 49, 62]⟩ 0 ⟨#[104, 49]⟩ (by decide) w
  rwa [show closesL (ByteArray.mk #[104, 49]).data.toList (tlS ⟨#[60, 47, 104, 49, 62]⟩ 0) = false from clo_k1] at h
theorem kL2 (w : World) : Calls Tryz.prog 31 #[.string ⟨#[60, 47, 84, 105, 116, 108, 101, 47]⟩, .int .i64 0, .string ⟨#[116, 105, 116, 108, 101]⟩] w fun e w' => e = .returned (.bool true) ∧ Below w.heap.size w w' := by
  have h := closesC ⟨#[60, 47, 84, 105, 116, 108, 101, 47]⟩ 0 ⟨#[116, 105, 116, 108, 101]⟩ (by decide) w
  rwa [show closesL (ByteArray.mk #[116, 105, 116, 108, 101]).data.toList (tlS ⟨#[60, 47, 84, 105, 116, 108, 101, 47]⟩ 0) = true from clo_k2] at h
theorem kO1 (m : Int) (w : World) (hm : w.cell? ⟨1, 0, none⟩ = some (.int .i64 m)) : Calls Tryz.prog 24 #[.string ⟨#[32, 97, 32, 83, 89, 83, 84, 69, 77, 39, 121, 39, 32, 122, 62]⟩, .int .i64 0] w fun e w' =>
    ∃ (hn : Bool) (pub : ByteArray), e = .returned (.tuple #[.agg #[.int .i64 1, .string ⟨#[97]⟩, .bool hn, .string pub, .bool false, .string ⟨#[121]⟩, .bool true, .bool false, .slice none 0 0, .bool false, .string ⟨#[]⟩, .int .i32 0], .int .i64 15]) ∧ Below w.heap.size w w' := by
  refine (doctypeC _ 0 m (by decide) w hm).mono ?_
  rintro e w' ⟨d, j, rfl, hb, _, hj, h⟩
  have hk := doc_k
  rw [show [32, 97, 32, 83, 89, 83, 84, 69, 77, 39, 121, 39, 32, 122, 62] = tlS ⟨#[32, 97, 32, 83, 89, 83, 84, 69, 77, 39, 121, 39, 32, 122, 62]⟩ 0 from rfl, h] at hk
  obtain ⟨st, q, name, hn, pub, hp, sys, hs, qk⟩ := d
  obtain ⟨h1, h2, h3, h4, h5, h6⟩ := hk
  obtain rfl : name = ⟨#[97]⟩ := list_bytes _ _ h1
  obtain rfl : sys = ⟨#[121]⟩ := list_bytes _ _ h3
  obtain rfl : hp = false := h2
  obtain rfl : hs = true := h4
  obtain rfl : qk = false := h5
  obtain rfl : j = 15 := drop_one h6 (n := 15) rfl hj
  exact ⟨hn, pub, rfl, hb⟩
theorem kS1 (m : Int) (w : World) (hm : w.cell? ⟨1, 0, none⟩ = some (.int .i64 m)) : Calls Tryz.prog 39 #[.string ⟨#[60, 33, 45, 45, 60, 115, 99, 114, 105, 112, 116, 62, 60, 47, 115, 99, 114, 105, 112, 116, 62, 60, 47, 115, 99, 114, 105, 112, 116, 62]⟩, .int .i64 0, .string ⟨#[115, 99, 114, 105, 112, 116]⟩] w fun e w' => e = .returned (.tuple #[.string ⟨#[60, 33, 45, 45, 60, 115, 99, 114, 105, 112, 116, 62, 60, 47, 115, 99, 114, 105, 112, 116, 62]⟩, .int .i64 21]) ∧ Below w.heap.size w w' := by
  refine (scriptC _ 0 _ m (by decide) w hm).mono ?_
  rintro e w' ⟨N, h, hN, rfl, hb⟩
  rw [show clip ⟨#[60, 33, 45, 45, 60, 115, 99, 114, 105, 112, 116, 62, 60, 47, 115, 99, 114, 105, 112, 116, 62, 60, 47, 115, 99, 114, 105, 112, 116, 62]⟩ 0 = 0 from rfl] at h hN ⊢
  have h' : _ = List.drop N _ := scr_k.symm.trans h
  obtain rfl : N = 21 := drop_one h'.symm (n := 30) rfl (by rw [Nat.zero_add] at hN; exact hN)
  exact ⟨rfl, hb⟩
theorem kA1 (m : Int) (w : World) (hc : CtlW w) (hm : w.cell? ⟨1, 0, none⟩ = some (.int .i64 m)) : Calls Tryz.prog 35 #[.string ⟨#[97, 38, 108, 116, 59, 60, 47, 98, 62, 60, 47, 97, 62]⟩, .int .i64 0, .string ⟨#[97]⟩] w fun e w' => e = .returned (.tuple #[.string ⟨#[97, 60, 60, 47, 98, 62]⟩, .int .i64 9]) ∧ Below w.heap.size w w' := by
  refine (rcdata lgL (Lib.hid lgOk) _ 0 _ m (by decide) w hc hm).mono ?_
  rintro e w' ⟨N, h, hN, rfl, hb⟩
  rw [show tlS ⟨#[97, 38, 108, 116, 59, 60, 47, 98, 62, 60, 47, 97, 62]⟩ 0 = [97, 38, 108, 116, 59, 60, 47, 98, 62, 60, 47, 97, 62] from rfl, show clip ⟨#[97, 38, 108, 116, 59, 60, 47, 98, 62, 60, 47, 97, 62]⟩ 0 = 0 from rfl] at *
  have h' : _ = List.drop N _ := stop_k.symm.trans h
  obtain rfl : N = 9 := drop_one h'.symm (n := 13) rfl (by rw [Nat.zero_add] at hN; exact hN)
  rw [show List.take 9 [97, 38, 108, 116, 59, 60, 47, 98, 62, 60, 47, 97, 62] = 97 :: 38 :: sLtb from rfl, res_ltb _ ref_ltb]
  exact ⟨rfl, hb⟩
end Go.Proofs.YtbjnolihaacahaaGreatDoor

namespace Go.Proofs.YtbjnolihaacahaaGreatDoor
open Go.RowKit Go.Shelf Go.Lib
set_option maxHeartbeats 2000000
set_option maxRecDepth 100000

theorem kof (s : ByteArray) (n : Int) (w : World) : Calls Tryz.prog 15 #[.string s, .int .i64 n] w fun e w' => e = .returned (.agg #[.string s, .int .i64 n]) ∧ Below w.heap.size w w' := by
  go_enter Tryz.func15, Tryz.ntmps15
  go_wp2_with fail
  refine bodyPost_ret (v := .agg #[.string s, .int .i64 n]) (by simp [results, Tryz.results15, go_sem]) rfl ⟨rfl, ?_⟩
  first | exact Below.refl _ _ | exact below_alloc (Below.refl _ _) _ | trace_state
theorem small02 (s : ByteArray) (w : World) : Calls Tryz.prog 13 #[.string s] w fun e w' => e = .returned (.bool (decide (s.size ≤ 4096))) ∧ w' = w := by
  go_enter Tryz.func13, Tryz.ntmps13
  go_wp2
  go_ret
  exact ⟨ret_bool (by rw [Bool.eq_iff_iff]; simp; omega), rfl⟩

theorem known02 (m : Int) (w : World) (hc : CtlW w) (hm : w.cell? ⟨1, 0, none⟩ = some (.int .i64 m)) :
    Calls Tryz.prog 14 #[] w fun e w' => e = .returned (.bool true) ∧ Below w.heap.size w w' := by
  have HM := Lib.hid hm
  have HC := Lib.hid hc
  clear hm hc
  have hb0 : Below w.heap.size w w := Below.refl _ _
  go_enter Tryz.func14, Tryz.ntmps14
  go_wp2_with fail
  refine (kR1 m w (HC.out.below hb0) (carry HM.out hb0)).mono ?_
  rintro e w1 ⟨rfl, hs1⟩
  have hb1 := below_next hb0 hs1
  clear hs1 hb0
  go_wp2_with fail
  refine (kof ⟨#[194, 172]⟩ 3 w1).mono ?_
  rintro e w2 ⟨rfl, hs2⟩
  have hb2 := below_next hb1 hs2
  clear hs2 hb1
  go_wp2_with fail
  refine (kof ⟨#[194, 172]⟩ 3 w2).mono ?_
  rintro e w3 ⟨rfl, hs3⟩
  have hb3 := below_next hb2 hs3
  clear hs3 hb2
  go_wp2_with fail
  refine (kR2 m w3 (HC.out.below hb3) (carry HM.out hb3)).mono ?_
  rintro e w4 ⟨rfl, hs4⟩
  have hb4 := below_next hb3 hs4
  clear hs4 hb3
  go_wp2_with fail
  refine (kof ⟨#[38, 110, 111, 116]⟩ 3 w4).mono ?_
  rintro e w5 ⟨rfl, hs5⟩
  have hb5 := below_next hb4 hs5
  clear hs5 hb4
  go_wp2_with fail
  refine (kof ⟨#[38, 110, 111, 116]⟩ 3 w5).mono ?_
  rintro e w6 ⟨rfl, hs6⟩
  have hb6 := below_next hb5 hs6
  clear hs6 hb5
  go_wp2_with fail
  refine (kR3 m w6 (HC.out.below hb6) (carry HM.out hb6)).mono ?_
  rintro e w7 ⟨rfl, hs7⟩
  have hb7 := below_next hb6 hs7
  clear hs7 hb6
  go_wp2_with fail
  refine (kof ⟨#[38, 35, 120]⟩ 2 w7).mono ?_
  rintro e w8 ⟨rfl, hs8⟩
  have hb8 := below_next hb7 hs8
  clear hs8 hb7
  go_wp2_with fail
  refine (kof ⟨#[38, 35, 120]⟩ 2 w8).mono ?_
  rintro e w9 ⟨rfl, hs9⟩
  have hb9 := below_next hb8 hs9
  clear hs9 hb8
  go_wp2_with fail
  refine (kR4 m w9 (HC.out.below hb9) (carry HM.out hb9)).mono ?_
  rintro e w10 ⟨rfl, hs10⟩
  have hb10 := below_next hb9 hs10
  clear hs10 hb9
  go_wp2_with fail
  refine (kof ⟨#[226, 130, 172]⟩ 4 w10).mono ?_
  rintro e w11 ⟨rfl, hs11⟩
  have hb11 := below_next hb10 hs11
  clear hs11 hb10
  go_wp2_with fail
  refine (kof ⟨#[226, 130, 172]⟩ 4 w11).mono ?_
  rintro e w12 ⟨rfl, hs12⟩
  have hb12 := below_next hb11 hs12
  clear hs12 hb11
  go_wp2_with fail
  refine (kC1 m w12 (carry HM.out hb12)).mono ?_
  rintro e w13 ⟨rfl, hs13⟩
  have hb13 := below_next hb12 hs13
  clear hs13 hb12
  go_wp2_with fail
  refine (kof ⟨#[97, 45, 45, 98]⟩ 7 w13).mono ?_
  rintro e w14 ⟨rfl, hs14⟩
  have hb14 := below_next hb13 hs14
  clear hs14 hb13
  go_wp2_with fail
  refine (kof ⟨#[97, 45, 45, 98]⟩ 7 w14).mono ?_
  rintro e w15 ⟨rfl, hs15⟩
  have hb15 := below_next hb14 hs15
  clear hs15 hb14
  go_wp2_with fail
  refine (kC2 m w15 (carry HM.out hb15)).mono ?_
  rintro e w16 ⟨rfl, hs16⟩
  have hb16 := below_next hb15 hs16
  clear hs16 hb15
  go_wp2_with fail
  refine (kof ⟨#[]⟩ 2 w16).mono ?_
  rintro e w17 ⟨rfl, hs17⟩
  have hb17 := below_next hb16 hs17
  clear hs17 hb16
  go_wp2_with fail
  refine (kof ⟨#[]⟩ 2 w17).mono ?_
  rintro e w18 ⟨rfl, hs18⟩
  have hb18 := below_next hb17 hs18
  clear hs18 hb17
  go_wp2_with fail
  refine (kD1 m w18 (carry HM.out hb18)).mono ?_
  rintro e w19 ⟨rfl, hs19⟩
  have hb19 := below_next hb18 hs19
  clear hs19 hb18
  go_wp2_with fail
  refine (kof ⟨#[97, 93, 93, 98, 93]⟩ 8 w19).mono ?_
  rintro e w20 ⟨rfl, hs20⟩
  have hb20 := below_next hb19 hs20
  clear hs20 hb19
  go_wp2_with fail
  refine (kof ⟨#[97, 93, 93, 98, 93]⟩ 8 w20).mono ?_
  rintro e w21 ⟨rfl, hs21⟩
  have hb21 := below_next hb20 hs21
  clear hs21 hb20
  go_wp2_with fail
  refine (kT1 m w21 (HC.out.below hb21) (carry HM.out hb21)).mono ?_
  rintro e w22 ⟨pa, pn, pc, rfl, hs22⟩
  unfold tokA
  have hb22 := below_next hb21 hs22
  clear hs22 hb21
  go_wp2_with fail
  obtain ⟨w22a, hwa⟩ : ∃ x, x = w22.alloc (.cells #[.int .i64 2, .string ⟨#[98, 114]⟩, .bool false, .string ⟨#[]⟩, .bool false, .string ⟨#[]⟩, .bool false, .bool false, .slice pa pn pc, .bool false, .string ⟨#[]⟩, .int .i32 0] 35) := ⟨_, rfl⟩
  rw [← hwa]
  replace hb22 : Below w.heap.size w w22a := by rw [hwa]; exact below_alloc hb22 _
  clear hwa
  refine (kL1 w22a).mono ?_
  rintro e w23 ⟨rfl, hs23⟩
  have hb23 := below_next hb22 hs23
  clear hs23 hb22
  go_wp2_with fail
  refine (kL2 w23).mono ?_
  rintro e w24 ⟨rfl, hs24⟩
  have hb24 := below_next hb23 hs24
  clear hs24 hb23
  go_wp2_with fail
  refine (kO1 m w24 (carry HM.out hb24)).mono ?_
  rintro e w25 ⟨qhn, qpub, rfl, hs25⟩
  have hb25 := below_next hb24 hs25
  clear hs25 hb24
  go_wp2_with fail
  obtain ⟨w25a, hwa⟩ : ∃ x, x = w25.alloc (.cells #[.int .i64 1, .string ⟨#[97]⟩, .bool qhn, .string qpub, .bool false, .string ⟨#[121]⟩, .bool true, .bool false, .slice none 0 0, .bool false, .string ⟨#[]⟩, .int .i32 0] 35) := ⟨_, rfl⟩
  rw [← hwa]
  replace hb25 : Below w.heap.size w w25a := by rw [hwa]; exact below_alloc hb25 _
  clear hwa
  refine (kS1 m w25a (carry HM.out hb25)).mono ?_
  rintro e w26 ⟨rfl, hs26⟩
  have hb26 := below_next hb25 hs26
  clear hs26 hb25
  go_wp2_with fail
  refine (kof ⟨#[60, 33, 45, 45, 60, 115, 99, 114, 105, 112, 116, 62, 60, 47, 115, 99, 114, 105, 112, 116, 62]⟩ 21 w26).mono ?_
  rintro e w27 ⟨rfl, hs27⟩
  have hb27 := below_next hb26 hs27
  clear hs27 hb26
  go_wp2_with fail
  refine (kof ⟨#[60, 33, 45, 45, 60, 115, 99, 114, 105, 112, 116, 62, 60, 47, 115, 99, 114, 105, 112, 116, 62]⟩ 21 w27).mono ?_
  rintro e w28 ⟨rfl, hs28⟩
  have hb28 := below_next hb27 hs28
  clear hs28 hb27
  go_wp2_with fail
  refine (kA1 m w28 (HC.out.below hb28) (carry HM.out hb28)).mono ?_
  rintro e w29 ⟨rfl, hs29⟩
  have hb29 := below_next hb28 hs29
  clear hs29 hb28
  go_wp2_with fail
  refine (kof ⟨#[97, 60, 60, 47, 98, 62]⟩ 9 w29).mono ?_
  rintro e w30 ⟨rfl, hs30⟩
  have hb30 := below_next hb29 hs30
  clear hs30 hb29
  go_wp2_with fail
  refine (kof ⟨#[97, 60, 60, 47, 98, 62]⟩ 9 w30).mono ?_
  rintro e w31 ⟨rfl, hs31⟩
  have hb31 := below_next hb30 hs31
  clear hs31 hb30
  go_wp2_with fail
  go_ret
  exact ⟨rfl, hb31⟩
end Go.Proofs.YtbjnolihaacahaaGreatDoor

namespace Go.Proofs.YtbjnolihaacahaaGreatDoor
open Go.Lib
set_option maxRecDepth 100000

def noEnd : List UInt8 → Bool
  | [] => true
  | b :: t => !([45, 45, 62].isPrefixOf (b :: t)) && !([45, 45, 33, 62].isPrefixOf (b :: t)) && noEnd t
def fitL (l : List UInt8) : Bool := !([62].isPrefixOf l) && !([45, 62].isPrefixOf l) && noEnd l

/-- Where no comment ends, a byte is data. -/
theorem comS_or (b : UInt8) (t : List UInt8) : (comS (b :: t)).1 = [] ∨ (comS (b :: t) = pre (nul1 b) 1 (comS t) ∧ [45, 45, 62].isPrefixOf (b :: t) = false ∧ [45, 45, 33, 62].isPrefixOf (b :: t) = false) := by
  rw [comS]
  by_cases h1 : [45, 45, 62].isPrefixOf (b :: t) = true
  · rw [if_pos h1]; exact .inl rfl
  · rw [if_neg h1]
    by_cases h2 : [45, 45, 33, 62].isPrefixOf (b :: t) = true
    · rw [if_pos h2]; exact .inl rfl
    · rw [if_neg h2]
      split
      · exact .inl rfl
      · split
        · exact .inl rfl
        · split
          · exact .inl rfl
          · exact .inr ⟨rfl, Bool.eq_false_iff.2 h1, Bool.eq_false_iff.2 h2⟩
theorem comS_hd {c : UInt8} (hc : c ≠ 239) : ∀ {t x : List UInt8}, (comS t).1 = c :: x → ∃ t', t = c :: t' ∧ (comS t').1 = x ∧ [45, 45, 62].isPrefixOf t = false ∧ [45, 45, 33, 62].isPrefixOf t = false
  | [], _, h => by cases h
  | b :: t, x, h => by
    rcases comS_or b t with h0 | ⟨h1, h2, h3⟩
    · rw [h0] at h; cases h
    · rw [h1] at h
      have h' : nul1 b ++ (comS t).1 = c :: x := h
      unfold nul1 at h'
      by_cases hb : b = 0
      · rw [if_pos hb] at h'
        injection h' with h4 _
        exact absurd h4.symm hc
      · rw [if_neg hb] at h'
        injection h' with h4 h5
        subst h4
        exact ⟨t, rfl, h5, h2, h3⟩
theorem pre_of {p l : List UInt8} (h : p.isPrefixOf l = true) : ∃ r, l = p ++ r := by
  obtain ⟨r, hr⟩ := List.isPrefixOf_iff_prefix.1 h
  exact ⟨r, hr.symm⟩
theorem comS_no1 (t : List UInt8) : [45, 45, 62].isPrefixOf (comS t).1 = false := by
  rw [Bool.eq_false_iff]
  intro h
  obtain ⟨r, hr⟩ := pre_of h
  obtain ⟨t1, rfl, h1, hn, _⟩ := comS_hd (by decide) hr
  obtain ⟨t2, rfl, h2, _, _⟩ := comS_hd (by decide) h1
  obtain ⟨t3, rfl, h3, _, _⟩ := comS_hd (by decide) h2
  simp [List.isPrefixOf] at hn
theorem comS_no2 (t : List UInt8) : [45, 45, 33, 62].isPrefixOf (comS t).1 = false := by
  rw [Bool.eq_false_iff]
  intro h
  obtain ⟨r, hr⟩ := pre_of h
  obtain ⟨t1, rfl, h1, _, hn⟩ := comS_hd (by decide) hr
  obtain ⟨t2, rfl, h2, _, _⟩ := comS_hd (by decide) h1
  obtain ⟨t3, rfl, h3, _, _⟩ := comS_hd (by decide) h2
  obtain ⟨t4, rfl, h4, _, _⟩ := comS_hd (by decide) h3
  simp [List.isPrefixOf] at hn
theorem comS_noEnd : ∀ t : List UInt8, noEnd (comS t).1 = true
  | [] => rfl
  | b :: t => by
    have ih := comS_noEnd t
    have n1 := comS_no1 (b :: t)
    have n2 := comS_no2 (b :: t)
    rcases comS_or b t with h0 | ⟨h1, _, _⟩
    · rw [h0]; rfl
    · rw [h1] at n1 n2 ⊢
      have e : (pre (nul1 b) 1 (comS t)).1 = nul1 b ++ (comS t).1 := rfl
      rw [e] at n1 n2 ⊢
      unfold nul1 at n1 n2 ⊢
      by_cases hb : b = 0
      · rw [if_pos hb]
        show noEnd (239 :: 191 :: 189 :: (comS t).1) = true
        simp [noEnd, List.isPrefixOf, ih]
      · rw [if_neg hb] at n1 n2 ⊢
        have n1' : [45, 45, 62].isPrefixOf (b :: (comS t).1) = false := n1
        have n2' : [45, 45, 33, 62].isPrefixOf (b :: (comS t).1) = false := n2
        show noEnd (b :: (comS t).1) = true
        rw [noEnd, n1', n2', ih]
        rfl
/-- What any comment is read as is data that is read back. -/
theorem com_fit (u : List UInt8) : fitL (comL u).1 = true := by
  unfold comL
  by_cases h1 : [62].isPrefixOf u = true
  · rw [if_pos h1]; rfl
  · rw [if_neg h1]
    by_cases h2 : [45, 62].isPrefixOf u = true
    · rw [if_pos h2]; rfl
    · rw [if_neg h2]
      unfold fitL
      have a1 : [62].isPrefixOf (comS u).1 = false := by
        rw [Bool.eq_false_iff]
        intro h
        obtain ⟨r, hr⟩ := pre_of h
        obtain ⟨t1, rfl, _, _, _⟩ := comS_hd (by decide) hr
        simp [List.isPrefixOf] at h1
      have a2 : [45, 62].isPrefixOf (comS u).1 = false := by
        rw [Bool.eq_false_iff]
        intro h
        obtain ⟨r, hr⟩ := pre_of h
        obtain ⟨t1, rfl, h3, _, _⟩ := comS_hd (by decide) hr
        obtain ⟨t2, rfl, _, _, _⟩ := comS_hd (by decide) h3
        simp [List.isPrefixOf] at h2
      rw [a1, a2, comS_noEnd]
      rfl

theorem no_end1 (b : UInt8) (d m : List UInt8) (h : [45, 45, 62].isPrefixOf (b :: d) = false) : [45, 45, 62].isPrefixOf (b :: (d ++ 45 :: 45 :: 62 :: m)) = false := by
  match d, h with
  | [], _ => simp [List.isPrefixOf]
  | [x], _ => simp [List.isPrefixOf]
  | x :: y :: d, h => simpa [List.isPrefixOf] using h
theorem no_end2 (b : UInt8) (d m : List UInt8) (h : [45, 45, 33, 62].isPrefixOf (b :: d) = false) : [45, 45, 33, 62].isPrefixOf (b :: (d ++ 45 :: 45 :: 62 :: m)) = false := by
  match d, h with
  | [], _ => simp [List.isPrefixOf]
  | [x], _ => simp [List.isPrefixOf]
  | [x, y], _ => simp [List.isPrefixOf]
  | x :: y :: z :: d, h => simpa [List.isPrefixOf] using h
theorem comS_back (m : List UInt8) : ∀ d : List UInt8, (∀ x ∈ d, x ≠ 0) → noEnd d = true → comS (d ++ 45 :: 45 :: 62 :: m) = (d, d.length + 3)
  | [], _, _ => by
    show comS (45 :: 45 :: 62 :: m) = _
    rw [comS, if_pos (by simp [List.isPrefixOf])]
    rfl
  | b :: d, hz, hn => by
    rw [noEnd, Bool.and_eq_true, Bool.and_eq_true] at hn
    obtain ⟨⟨h1, h2⟩, h3⟩ := hn
    have e1 := no_end1 b d m (by rw [Bool.not_eq_true'] at h1; exact h1)
    have e2 := no_end2 b d m (by rw [Bool.not_eq_true'] at h2; exact h2)
    have hl : 4 ≤ (b :: (d ++ 45 :: 45 :: 62 :: m)).length := by simp; omega
    have ih := comS_back m d (fun x hx => hz x (by simp [hx])) h3
    rw [List.cons_append, comS, e1, e2, if_neg Bool.false_ne_true, if_neg Bool.false_ne_true, if_neg (fun e => by rw [e] at hl; simp at hl), if_neg (fun e => by rw [e] at hl; simp at hl), if_neg (fun e => by rw [e] at hl; simp at hl), ih]
    have hb : nul1 b = [b] := by unfold nul1; exact if_neg (hz b (by simp))
    rw [hb]
    show ([b] ++ d, 1 + (d.length + 3)) = _
    rw [List.length_cons]
    congr 1
    omega
/-- Such data is read back. -/
theorem com_back (d m : List UInt8) (hz : ∀ x ∈ d, x ≠ 0) (hf : fitL d = true) : comL (d ++ 45 :: 45 :: 62 :: m) = (d, d.length + 3) := by
  unfold fitL at hf
  rw [Bool.and_eq_true, Bool.and_eq_true] at hf
  obtain ⟨⟨h1, h2⟩, h3⟩ := hf
  have a1 : [62].isPrefixOf (d ++ 45 :: 45 :: 62 :: m) = false := by
    match d, h1 with
    | [], _ => simp [List.isPrefixOf]
    | x :: d, h => simpa [List.isPrefixOf] using h
  have a2 : [45, 62].isPrefixOf (d ++ 45 :: 45 :: 62 :: m) = false := by
    match d, h2 with
    | [], _ => simp [List.isPrefixOf]
    | [x], _ => simp [List.isPrefixOf]
    | x :: y :: d, h => rw [Bool.not_eq_true'] at h; exact h
  unfold comL
  rw [a1, a2, if_neg Bool.false_ne_true, if_neg Bool.false_ne_true]
  exact comS_back m d hz h3
end Go.Proofs.YtbjnolihaacahaaGreatDoor

namespace Go.Proofs.YtbjnolihaacahaaGreatDoor
open Go.RowKit Go.Lib
set_option maxHeartbeats 1000000
set_option maxRecDepth 100000

theorem preB_cut (s p : ByteArray) : ((s.extract 0 p.size).toList == p.toList) = p.data.toList.isPrefixOf s.data.toList := by
  rw [Bool.eq_iff_iff, List.isPrefixOf_iff_prefix, List.prefix_iff_eq_take, beq_iff_eq, ByteArray.toList_eq, ByteArray.toList_eq, Lib.extract_data, List.drop_zero, Nat.sub_zero, size_list]
  exact ⟨fun h => h.symm, fun h => h.symm⟩
theorem preB_long {s p : ByteArray} (h : ¬ p.size ≤ s.size) : p.data.toList.isPrefixOf s.data.toList = false := by
  rw [Bool.eq_false_iff]
  intro e
  have := (List.isPrefixOf_iff_prefix.1 e).length_le
  rw [size_list, size_list] at this
  exact h this

theorem rBegins1 (s p : ByteArray) (w : World) :
    Calls Tryz.prog 63 #[.string s, .string p] w fun e w' => e = .returned (.bool (p.data.toList.isPrefixOf s.data.toList)) ∧ w' = w := by
  by_cases hl : p.size ≤ s.size
  · have hI : (p.size : Int) ≤ (s.size : Int) := by omega
    have HE := Lib.hid (preB_cut s p)
    go_enter Tryz.func63, Tryz.ntmps63
    go_wp2
    go_ret
    exact ⟨ret_bool HE.out, rfl⟩
  · have hI : (s.size : Int) < (p.size : Int) := by omega
    have HE := Lib.hid (preB_long hl)
    go_enter Tryz.func63, Tryz.ntmps63
    go_wp2
    go_ret
    exact ⟨ret_bool HE.out.symm, rfl⟩
end Go.Proofs.YtbjnolihaacahaaGreatDoor

namespace Go.Proofs.YtbjnolihaacahaaGreatDoor
open Go.RowKit Go.Shelf Go.Lib
set_option maxHeartbeats 4000000
set_option maxRecDepth 100000

theorem noEnd_drop {s : ByteArray} {k : Nat} (hk : k < s.size) : noEnd (s.data.toList.drop k) = (!([45, 45, 62].isPrefixOf (s.data.toList.drop k)) && !([45, 45, 33, 62].isPrefixOf (s.data.toList.drop k)) && noEnd (s.data.toList.drop (k + 1))) := by
  rw [drop_byte s k hk, noEnd]
theorem fitC (s : ByteArray) (hs : s.size ≤ 10000000) (w : World) : Calls Tryz.prog 44 #[.string s] w fun e w' => e = .returned (.bool (fitL s.data.toList)) ∧ w' = w := by
  obtain ⟨p1, hp1⟩ : ∃ p1, p1 = [62].isPrefixOf s.data.toList := ⟨_, rfl⟩
  obtain ⟨p2, hp2⟩ : ∃ p2, p2 = [45, 62].isPrefixOf s.data.toList := ⟨_, rfl⟩
  have hb1 := rBegins1 s ⟨#[62]⟩ w
  rw [show (ByteArray.mk #[62]).data.toList.isPrefixOf s.data.toList = p1 from hp1.symm] at hb1
  have hb2 := rBegins1 s ⟨#[45, 62]⟩ w
  rw [show (ByteArray.mk #[45, 62]).data.toList.isPrefixOf s.data.toList = p2 from hp2.symm] at hb2
  have HB1 := Lib.hid hb1
  have HB2 := Lib.hid hb2
  have hf : fitL s.data.toList = (!p1 && !p2 && noEnd s.data.toList) := by rw [hp1, hp2]; rfl
  have HF := Lib.hid hf
  have HSZ := Lib.hid hs
  clear hb1 hb2 hp1 hp2 hf hs
  cases p1
  · cases p2
    · go_enter Tryz.func44, Tryz.ntmps44
      go_wp2_with fail
      refine HB1.out.mono ?_
      rintro e w1 ⟨rfl, rfl⟩
      go_wp2_with fail
      refine HB2.out.mono ?_
      rintro e w2 ⟨rfl, rfl⟩
      go_wp2_with fail
      go_loop [3] (fun i => ∃ k : Nat, k ≤ s.size ∧ i = .int .i64 k ∧ noEnd s.data.toList = noEnd (s.data.toList.drop k)) (fun i => s.size - (intOf i).toNat)
      case atStart => exact ⟨0, Nat.zero_le _, rfl, by rw [List.drop_zero]⟩
      case round =>
        obtain ⟨k, hk, rfl, heq⟩ := hrel
        have HEQ := Lib.hid heq
        clear heq
        by_cases hlt : k < s.size
        · have hI : (k : Int) < (s.size : Int) := by omega
          have hz : (s.size : Int) ≤ 10000000 := by have := HSZ.out; omega
          obtain ⟨q1, hq1⟩ : ∃ q1, q1 = [45, 45, 62].isPrefixOf (s.data.toList.drop k) := ⟨_, rfl⟩
          obtain ⟨q2, hq2⟩ : ∃ q2, q2 = [45, 45, 33, 62].isPrefixOf (s.data.toList.drop k) := ⟨_, rfl⟩
          have hx : (s.extract k s.size).data.toList = s.data.toList.drop k := by
            have hx := ext_take s k (s.size - k) (by omega)
            rw [show k + (s.size - k) = s.size by omega, List.take_of_length_le (by rw [List.length_drop, size_list]; omega)] at hx
            exact hx
          have hc1 := fun W => rBegins1 (s.extract k s.size) ⟨#[45, 45, 62]⟩ W
          rw [hx] at hc1
          rw [show (ByteArray.mk #[45, 45, 62]).data.toList.isPrefixOf (s.data.toList.drop k) = q1 from hq1.symm] at hc1
          have hc2 := fun W => rBegins1 (s.extract k s.size) ⟨#[45, 45, 33, 62]⟩ W
          rw [hx] at hc2
          rw [show (ByteArray.mk #[45, 45, 33, 62]).data.toList.isPrefixOf (s.data.toList.drop k) = q2 from hq2.symm] at hc2
          have HC1 := Lib.hid hc1
          have HC2 := Lib.hid hc2
          have hn : noEnd s.data.toList = (!q1 && !q2 && noEnd (s.data.toList.drop (k + 1))) := by rw [HEQ.out, noEnd_drop hlt, hq1, hq2]
          have HN := Lib.hid hn
          clear hc1 hc2 hx hq1 hq2 hn
          cases q1
          · cases q2
            · go_wp2_with fail
              refine (HC1.out _).mono ?_
              rintro e w3 ⟨rfl, rfl⟩
              go_wp2_with fail
              refine (HC2.out _).mono ?_
              rintro e w4 ⟨rfl, rfl⟩
              go_wp2_with fail
              go_round
              case rel => exact ⟨k + 1, by omega, by go_num, HN.out⟩
              case measure => simp [intOf]; omega
            · go_wp2_with fail
              refine (HC1.out _).mono ?_
              rintro e w3 ⟨rfl, rfl⟩
              go_wp2_with fail
              refine (HC2.out _).mono ?_
              rintro e w4 ⟨rfl, rfl⟩
              go_wp2_with fail
              go_ret
              exact ⟨ret_bool (by rw [HF.out, HN.out]; rfl), rfl⟩
          · go_wp2_with fail
            refine (HC1.out _).mono ?_
            rintro e w3 ⟨rfl, rfl⟩
            go_wp2_with fail
            go_ret
            exact ⟨ret_bool (by rw [HF.out, HN.out]; rfl), rfl⟩
        · have hI : (k : Int) = (s.size : Int) := by omega
          have hk' : k = s.size := by omega
          have HN := Lib.hid (show noEnd s.data.toList = true by rw [HEQ.out, hk', drop_end s s.size (Nat.le_refl _)]; rfl)
          have hI2 : ¬ (k : Int) < (s.size : Int) := by omega
          clear hI hk'
          go_wp2_with fail
          go_ret
          exact ⟨ret_bool (by rw [HF.out, HN.out]; rfl), rfl⟩
    · go_enter Tryz.func44, Tryz.ntmps44
      go_wp2_with fail
      refine HB1.out.mono ?_
      rintro e w1 ⟨rfl, rfl⟩
      go_wp2_with fail
      refine HB2.out.mono ?_
      rintro e w2 ⟨rfl, rfl⟩
      go_wp2_with fail
      go_ret
      exact ⟨ret_bool (by rw [HF.out]; rfl), rfl⟩
  · go_enter Tryz.func44, Tryz.ntmps44
    go_wp2_with fail
    refine HB1.out.mono ?_
    rintro e w1 ⟨rfl, rfl⟩
    go_wp2_with fail
    go_ret
    exact ⟨ret_bool (by rw [HF.out]; rfl), rfl⟩

theorem comS_len : ∀ t : List UInt8, (comS t).1.length ≤ 3 * t.length
  | [] => Nat.zero_le _
  | b :: t => by
    have ih := comS_len t
    rcases comS_or b t with h0 | ⟨h1, _, _⟩
    · rw [h0]; exact Nat.zero_le _
    · rw [h1]
      have e : (pre (nul1 b) 1 (comS t)).1 = nul1 b ++ (comS t).1 := rfl
      have : (nul1 b).length ≤ 3 := by unfold nul1; split <;> simp
      rw [e, List.length_append, List.length_cons]
      omega
theorem comL_len (t : List UInt8) : (comL t).1.length ≤ 3 * t.length := by
  unfold comL
  split
  · exact Nat.zero_le _
  · split
    · exact Nat.zero_le _
    · exact comS_len t
theorem tl0 (B : ByteArray) : clip B 0 = 0 ∧ tlS B 0 = B.data.toList := by
  have : clip B 0 = 0 := by unfold clip; omega
  exact ⟨this, by unfold tlS; rw [this]; rfl⟩
theorem lawBackC (data more : ByteArray) (m : Int) (w : World) (hm : w.cell? ⟨1, 0, none⟩ = some (.int .i64 m)) (hc : CtlW w) :
    Calls Tryz.prog 12 #[.string data, .string more] w fun e w' => e = .returned (.bool true) ∧ Below w.heap.size w w' := by
  have HM := Lib.hid hm
  have HC := Lib.hid hc
  have HS1 := Lib.hid (small02 data)
  have HS2 := Lib.hid (small02 more)
  have HK := Lib.hid (known02 m w hc hm)
  clear hm hc
  by_cases h1 : data.size ≤ 4096
  · rw [decide_eq_true h1] at HS1
    by_cases h2 : more.size ≤ 4096
    · rw [decide_eq_true h2] at HS2
      have HH := Lib.hid (rHas data 0 (by unfold maxLen; omega))
      obtain ⟨z, hz⟩ : ∃ z, z = allB (fun b => !(b == (0 : Int))) data := ⟨_, rfl⟩
      rw [← hz] at HH
      have HZ := Lib.hid hz
      have H1 := Lib.hid h1
      have H2 := Lib.hid h2
      clear hz h1 h2
      cases z
      · go_enter Tryz.func12, Tryz.ntmps12
        go_wp2_with fail
        refine (HS1.out w).mono ?_
        rintro e w1 ⟨rfl, rfl⟩
        go_wp2_with fail
        refine (HS2.out w1).mono ?_
        rintro e w2 ⟨rfl, rfl⟩
        go_wp2_with fail
        refine (HH.out w2).mono ?_
        rintro e w3 ⟨rfl, rfl⟩
        go_wp2_with fail
        refine HK.out.mono ?_
        rintro e w4 ⟨rfl, hb⟩
        go_wp2_with fail
        go_ret
        exact ⟨rfl, hb⟩
      · have hnz : ∀ x ∈ data.data.toList, x ≠ 0 := by
          intro x hx e
          have hz := HZ.out.symm
          unfold allB at hz
          have := List.all_eq_true.1 hz x hx
          rw [e] at this
          simp at this
        have HNZ := Lib.hid hnz
        have HF := Lib.hid (fun W => fitC data (by have := H1.out; omega) W)
        obtain ⟨f, hf⟩ : ∃ f, f = fitL data.data.toList := ⟨_, rfl⟩
        rw [← hf] at HF
        have HFE := Lib.hid hf
        clear hnz hf
        have hd4 : data.size ≤ 4096 := H1.out
        have hm4 : more.size ≤ 4096 := H2.out
        go_enter Tryz.func12, Tryz.ntmps12
        go_wp2_with fail
        refine (HS1.out w).mono ?_
        rintro e w1 ⟨rfl, rfl⟩
        go_wp2_with fail
        refine (HS2.out w1).mono ?_
        rintro e w2 ⟨rfl, rfl⟩
        go_wp2_with fail
        refine (HH.out w2).mono ?_
        rintro e w3 ⟨rfl, rfl⟩
        go_wp2_with fail
        obtain ⟨B, hB⟩ : ∃ B, B = data ++ more := ⟨_, rfl⟩
        rw [← hB]
        have hBs : B.size ≤ 8192 := by rw [hB, ByteArray.size_append]; omega
        have HCo := Lib.hid (commentC B 0 m (by omega) w3 HM.out)
        obtain ⟨V1, hV1⟩ : ∃ V1, V1 = bl (comL (tlS B 0)).1 := ⟨_, rfl⟩
        rw [← hV1] at HCo
        obtain ⟨n1, hn1⟩ : ∃ n1 : Int, n1 = ((clip B 0 + (comL (tlS B 0)).2 : Nat) : Int) := ⟨_, rfl⟩
        rw [← hn1] at HCo
        have hF1 : fitL V1.data.toList = true := by rw [hV1, bl_list]; exact com_fit _
        have hV1s : V1.size ≤ 10000000 := by
          rw [hV1, bl_size]
          have h := comL_len (tlS B 0)
          rw [(tl0 B).2, size_list] at h
          rw [(tl0 B).2]
          omega
        have hfc := fun W => fitC V1 hV1s W
        rw [hF1] at hfc
        have HFC := Lib.hid hfc
        clear hB hBs hV1 hn1 hF1 hV1s hfc
        refine HCo.out.mono ?_
        rintro e w4 ⟨rfl, hb4⟩
        go_wp2_with fail
        refine (kof V1 n1 w4).mono ?_
        rintro e w5 ⟨rfl, hs5⟩
        have hb5 := below_next hb4 hs5
        clear hs5 hb4
        go_wp2_with fail
        obtain ⟨w6, hw6⟩ : ∃ x, x = w5.alloc (.cells #[.string V1, .int .i64 n1] 25) := ⟨_, rfl⟩
        rw [← hw6]
        have hb6 : Below w3.heap.size w3 w6 := by rw [hw6]; exact below_alloc hb5 _
        clear hw6 hb5
        refine (HFC.out w6).mono ?_
        rintro e w7 ⟨rfl, rfl⟩
        go_wp2_with fail
        refine (HF.out w7).mono ?_
        rintro e w8 ⟨rfl, rfl⟩
        cases f
        · have HKn := Lib.hid (known02 m w8 (HC.out.below hb6) (carry HM.out hb6))
          go_wp2_with fail
          refine HKn.out.mono ?_
          rintro e w9 ⟨rfl, hb9⟩
          go_wp2_with fail
          go_ret
          exact ⟨rfl, below_next hb6 hb9⟩
        · go_wp2_with fail
          obtain ⟨B2, hB2⟩ : ∃ B2, B2 = data ++ (⟨#[45, 45, 62]⟩ : ByteArray) ++ more := ⟨_, rfl⟩
          rw [← hB2]
          have hB2s : B2.size ≤ 8195 := by
            rw [hB2, ByteArray.size_append, ByteArray.size_append]
            show data.size + 3 + more.size ≤ _
            omega
          have hB2l : B2.data.toList = data.data.toList ++ 45 :: 45 :: 62 :: more.data.toList := by
            rw [hB2, ByteArray.data_append, ByteArray.data_append, Array.toList_append, Array.toList_append, List.append_assoc]
            rfl
          have hco := commentC B2 0 m (by omega) w8 (carry HM.out hb6)
          rw [(tl0 B2).2, (tl0 B2).1, hB2l, com_back _ _ HNZ.out HFE.out.symm] at hco
          have e3 : ((0 + (data.data.toList.length + 3) : Nat) : Int) = (data.size : Int) + 3 := by rw [size_list]; omega
          have e4 : bl data.data.toList = data := bl_of data
          simp only [] at hco
          rw [e3, e4] at hco
          have HCo2 := Lib.hid hco
          clear hB2 hB2s hB2l hco e3 e4
          refine HCo2.out.mono ?_
          rintro e w9 ⟨rfl, hs9⟩
          have hb9 := below_next hb6 hs9
          clear hs9 hb6
          go_wp2_with fail
          refine (kof data _ w9).mono ?_
          rintro e w10 ⟨rfl, hs10⟩
          have hb10 := below_next hb9 hs10
          clear hs10 hb9
          go_wp2_with fail
          refine (kof data _ w10).mono ?_
          rintro e w11 ⟨rfl, hs11⟩
          have hb11 := below_next hb10 hs11
          clear hs11 hb10
          have HKn := Lib.hid (known02 m w11 (HC.out.below hb11) (carry HM.out hb11))
          go_wp2_with fail
          refine HKn.out.mono ?_
          rintro e w12 ⟨rfl, hb12⟩
          go_wp2_with fail
          go_ret
          exact ⟨rfl, below_next hb11 hb12⟩
    · rw [decide_eq_false h2] at HS2
      clear h1 h2
      go_enter Tryz.func12, Tryz.ntmps12
      go_wp2_with fail
      refine (HS1.out w).mono ?_
      rintro e w1 ⟨rfl, rfl⟩
      go_wp2_with fail
      refine (HS2.out w1).mono ?_
      rintro e w2 ⟨rfl, rfl⟩
      go_wp2_with fail
      refine HK.out.mono ?_
      rintro e w4 ⟨rfl, hb⟩
      go_wp2_with fail
      go_ret
      exact ⟨rfl, hb⟩
  · rw [decide_eq_false h1] at HS1
    clear h1
    go_enter Tryz.func12, Tryz.ntmps12
    go_wp2_with fail
    refine (HS1.out w).mono ?_
    rintro e w1 ⟨rfl, rfl⟩
    go_wp2_with fail
    refine HK.out.mono ?_
    rintro e w4 ⟨rfl, hb⟩
    go_wp2_with fail
    go_ret
    exact ⟨rfl, hb⟩
end Go.Proofs.YtbjnolihaacahaaGreatDoor

namespace Go.Proofs.YtbjnolihaacahaaGreatDoor
open Go.ChangeShapes Go.WideShapes Go.ChangeAt Go.RowKit
set_option maxRecDepth 100000

def laidC : List (String × DataW Unit) := [("unicode/utf8.acceptRanges", Rows.laid_unicode_utf8_acceptRanges), ("thicket/text.controls", Rows.laid_thicket_text_controls), ("unicode/utf8.first", Rows.laid_unicode_utf8_first)]
theorem doorC_os (os : Os) : (World.laidAll Tryz.prog os laidC).os = os := World.laidAll_os _ _ _
theorem doorC_met (os : Os) (args : Array Value) : laidMetH Tryz.prog laidC ((World.laidAll Tryz.prog os laidC).forCall (fun _ _ => 0) ⟨#[], args, []⟩).memory := by
  rw [MakeChecks.laidMetH_plain _ _ _ (by kernel_rfl)]
  exact laidMet_laidAll _ (by kernel_rfl) (by kernel_rfl)

theorem gCtl : Tryz.prog.globalNamed "thicket/text.controls" = some 0 := by kernel_rfl
theorem tCtl : (Tryz.prog.globals[0]?).map (·.type) = some 126 := by kernel_rfl
theorem cCtl : Tryz.prog.cellsOf 21 = 1 := by kernel_rfl
theorem ctlD : (Rows.laid_thicket_text_controls : DataW Unit) = .agg (ctlT.map fun z => .lit (.int .i32 z)) := rfl

theorem ctl_of_laid {W : World} (h : laidMetH Tryz.prog laidC W) : CtlW W := by
  rw [MakeChecks.laidMetH_plain _ _ _ (by kernel_rfl)] at h
  obtain ⟨ps, ⟨g0, t0, cs0, f0, p0, q0, hg0, ht0, hv0, hd0, ⟨g1, t1, cs1, f1, p1, q1, hg1, ht1, hv1, hd1, _, _⟩, _⟩, _⟩ := h
  obtain rfl := Option.some.inj (gCtl.symm.trans hg1)
  obtain rfl := Option.some.inj (tCtl.symm.trans ht1)
  obtain ⟨xs, m1, rfl, hx1, hlen, hn, hel⟩ := DataW.trod_array Tryz.underlying126 hd1
  intro k hk
  have h1 := hel k hk
  rw [cCtl, Nat.mul_one] at h1
  have hxk : xs[k]? = some (xs[k]'(by omega)) := List.getElem?_eq_getElem (by omega)
  rw [hxk] at h1
  obtain ⟨z, e1, e2, _⟩ := DataW.trod_int Tryz.underlying21 h1
  have hz : z = ctlT.getD k 0 := by
    have hx2 := congrArg Prod.fst hx1
    rw [ctlD] at hx2
    simp only [DataW.agg.injEq] at hx2
    have h3 : (ctlT.map fun z => (DataW.lit (.int .i32 z) : DataW Unit))[k]? = (xs.map (·.1))[k]? := by rw [hx2]
    rw [List.getElem?_map, List.getElem?_map, hxk, e2] at h3
    have hk2 : k < ctlT.length := hk
    rw [List.getElem?_eq_getElem hk2] at h3
    simp at h3
    rw [List.getD_eq_getElem?_getD, List.getElem?_eq_getElem hk2]
    simpa using h3.symm
  rw [World.var?_cell hg1 hv1 k, ← hz]
  have h4 : (cs1.toList.drop k)[0]? = some (.int .i32 z) := by
    have := congrArg (fun l => l[0]?) e1
    simp only [List.getElem?_take] at this
    simpa using this
  rw [List.getElem?_drop, Nat.add_zero, Array.getElem?_toList] at h4
  exact h4

/-- A row whose start is said to hold more, with the shapes and the listed variables at hand. -/
theorem handedC {H : Type} {enc : TypeId × Value → H} {a : Assume} {os : Os} {f : FuncId} {fn : Func} {s : ChangeSpec} {conds : List PathCond} {apart fresh handsOn again : Bool}
    (own : ownKnob Tryz.prog.godebug = none) (started : os.Started) (noInit : Tryz.prog.inits.idxOf? f = none) (hfn : Tryz.prog.funcs[f]? = some fn)
    (witness : ∃ (w : World) (tape : Tape) (i : Input), w.os = os ∧ (w.forCall tape i).Shaped Tryz.prog ∧ i.vars = [] ∧ Input.okWide Tryz.prog (w.forCall tape i) .any w.heap.size f i ∧
      ((s.pre enc Tryz.prog fn conds apart (w.forCall tape i).memory i.args ∧ laidMetH Tryz.prog laidC (w.forCall tape i).memory) ∧ sizedMet enc Tryz.prog fn (OpenSpec.ofChange s) apart (w.forCall tape i).memory i.args) ∧ a.holds Tryz.prog (lone (Frame.enter Tryz.prog f i.args .normal) [] (w.forCall tape i)))
    (walk : ∀ (W : World) (base : Nat) (args : Array Value) (ds gs : List (DataW H)) (before : List MemPlace),
      (∀ (j : Nat) t v, fn.params[j]? = some t → args[j]? = some v → Value.okWide Tryz.prog W .any base t v) →
      DataW.Whole enc Tryz.prog fn.params.toList s.vars apart W args.toList ds gs before → W.ShapedOpen Tryz.prog → CtlW W →
      Calls Tryz.prog f args W fun e W' => ∃ v, e = .returned v ∧ s.post enc Tryz.prog fn apart fresh handsOn again W args v W') :
    ReturnsInHanded a Tryz.checked os f .any (fun w args => (s.pre enc Tryz.prog fn conds apart w args ∧ laidMetH Tryz.prog laidC w) ∧ sizedMet enc Tryz.prog fn (OpenSpec.ofChange s) apart w args) (s.post enc Tryz.prog fn apart fresh handsOn again) := by
  refine returnsInHanded_of_calls (C := Tryz.checked) own started (by exact noInit) witness ?_
  intro w tape i _ hsh _ hok hpre _
  obtain ⟨_, _, _, fn', hfn', _, _, _, _, hval⟩ := hok
  obtain rfl : fn' = fn := Option.some.inj (hfn'.symm.trans hfn)
  obtain ⟨⟨⟨ds, gs, before, hw, _⟩, hX⟩, _⟩ := hpre
  refine (walk (w.forCall tape i) w.heap.size i.args ds gs before hval (DataW.Whole.of_heap (w' := w.forCall tape i) (by rfl) hw) hsh (ctl_of_laid (laidMetH.of_heap (w' := w.forCall tape i) (by rfl) hX))).mono fun e W' ⟨v, he, hp⟩ => ?_
  subst he
  exact ChangeSpec.post_blind hp
end Go.Proofs.YtbjnolihaacahaaGreatDoor
