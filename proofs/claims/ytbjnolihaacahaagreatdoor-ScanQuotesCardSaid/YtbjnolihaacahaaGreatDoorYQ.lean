/-
  The scanner's examples: what the readers answer at them.
  The scanner's examples: the rows that each statement checks.
  Names that are read whatever follows: three kernel looks at the table.
  A value that is escaped and put in quotes is read back. No program in sight.
  ScanQuotes: a value that is escaped and put in quotes is read back, whatever follows.
  The frame of the rows that list the table of the controls as well.
-/
import Derived.Test.YtbjnolihaacahaaGreatDoorY35
import Derived.Test.YtbjnolihaacahaaGreatDoorY36
import Derived.Test.YtbjnolihaacahaaGreatDoorY37
import Derived.Test.YtbjnolihaacahaaGreatDoorY38
import Derived.Test.YtbjnolihaacahaaGreatDoorY43
import Derived.Test.YtbjnolihaacahaaGreatDoorY51
import Derived.Test.YtbjnolihaacahaaGreatDoorY40
import Derived.Test.YtbjnolihaacahaaGreatDoorY26
import Derived.Test.YtbjnolihaacahaaGreatDoorY33
import Derived.Test.YtbjnolihaacahaaGreatDoorY20
import Derived.Test.YtbjnolihaacahaaGreatDoorY31
import Derived.Test.YtbjnolihaacahaaGreatDoorY30
namespace Go.Proofs.YtbjnolihaacahaaGreatDoor
open Go.RowKit Go.Shelf Go.Lib
set_option maxHeartbeats 2000000
set_option maxRecDepth 100000

theorem drop_one {l : List UInt8} {N n : Nat} {r : List UInt8} (h : l.drop N = r) (hl : l.length = n) (hn : N ≤ n) : N = n - r.length := by
  have := congrArg List.length h
  rw [List.length_drop, hl] at this
  omega
theorem kR1 (m : Int) (w : World) (hc : CtlW w) (hm : w.cell? ⟨1, 0, none⟩ = some (.int .i64 m)) : Calls Tryz.prog 16 #[.string ⟨#[110, 111, 116, 105, 116, 59]⟩, .int .i64 0, .bool false] w fun e w' => e = .returned (.tuple #[.string ⟨#[194, 172]⟩, .int .i64 3]) ∧ Below w.heap.size w w' := by
  refine (referenceC lgL (Lib.hid lgOk) _ 0 false m (by decide) w hc hm).mono ?_
  rintro e w' ⟨V, N, rfl, hV, hN, _, hb⟩
  rw [show tlS ⟨#[110, 111, 116, 105, 116, 59]⟩ 0 = sNotit from rfl, ref_notF] at hV hN
  obtain rfl : V = ⟨#[194, 172]⟩ := list_bytes _ _ hV
  subst hN
  exact ⟨rfl, hb⟩
theorem kR2 (m : Int) (w : World) (hc : CtlW w) (hm : w.cell? ⟨1, 0, none⟩ = some (.int .i64 m)) : Calls Tryz.prog 16 #[.string ⟨#[110, 111, 116, 105, 116, 59]⟩, .int .i64 0, .bool true] w fun e w' => e = .returned (.tuple #[.string ⟨#[38, 110, 111, 116]⟩, .int .i64 3]) ∧ Below w.heap.size w w' := by
  refine (referenceC lgL (Lib.hid lgOk) _ 0 true m (by decide) w hc hm).mono ?_
  rintro e w' ⟨V, N, rfl, hV, hN, _, hb⟩
  rw [show tlS ⟨#[110, 111, 116, 105, 116, 59]⟩ 0 = sNotit from rfl, ref_notT] at hV hN
  obtain rfl : V = ⟨#[38, 110, 111, 116]⟩ := list_bytes _ _ hV
  subst hN
  exact ⟨rfl, hb⟩
theorem kR3 (m : Int) (w : World) (hc : CtlW w) (hm : w.cell? ⟨1, 0, none⟩ = some (.int .i64 m)) : Calls Tryz.prog 16 #[.string ⟨#[35, 120, 103]⟩, .int .i64 0, .bool false] w fun e w' => e = .returned (.tuple #[.string ⟨#[38, 35, 120]⟩, .int .i64 2]) ∧ Below w.heap.size w w' := by
  refine (referenceC lgL (Lib.hid lgOk) _ 0 false m (by decide) w hc hm).mono ?_
  rintro e w' ⟨V, N, rfl, hV, hN, _, hb⟩
  rw [show tlS ⟨#[35, 120, 103]⟩ 0 = [35, 120, 103] from rfl, ref_xg] at hV hN
  obtain rfl : V = ⟨#[38, 35, 120]⟩ := list_bytes _ _ hV
  subst hN
  exact ⟨rfl, hb⟩
theorem kR4 (m : Int) (w : World) (hc : CtlW w) (hm : w.cell? ⟨1, 0, none⟩ = some (.int .i64 m)) : Calls Tryz.prog 16 #[.string ⟨#[35, 120, 56, 48]⟩, .int .i64 0, .bool true] w fun e w' => e = .returned (.tuple #[.string ⟨#[226, 130, 172]⟩, .int .i64 4]) ∧ Below w.heap.size w w' := by
  refine (referenceC lgL (Lib.hid lgOk) _ 0 true m (by decide) w hc hm).mono ?_
  rintro e w' ⟨V, N, rfl, hV, hN, _, hb⟩
  rw [show tlS ⟨#[35, 120, 56, 48]⟩ 0 = [35, 120, 56, 48] from rfl, ref_x80] at hV hN
  obtain rfl : V = ⟨#[226, 130, 172]⟩ := list_bytes _ _ hV
  subst hN
  exact ⟨rfl, hb⟩
theorem kC1 (m : Int) (w : World) (hm : w.cell? ⟨1, 0, none⟩ = some (.int .i64 m)) : Calls Tryz.prog 18 #[.string ⟨#[97, 45, 45, 98, 45, 45, 62, 99]⟩, .int .i64 0] w fun e w' => e = .returned (.tuple #[.string ⟨#[97, 45, 45, 98]⟩, .int .i64 7]) ∧ Below w.heap.size w w' := by
  refine (commentC _ 0 m (by decide) w hm).mono ?_
  rintro e w' ⟨rfl, hb⟩
  rw [show tlS ⟨#[97, 45, 45, 98, 45, 45, 62, 99]⟩ 0 = [97, 45, 45, 98, 45, 45, 62, 99] from rfl, com_k1]
  exact ⟨rfl, hb⟩
theorem kC2 (m : Int) (w : World) (hm : w.cell? ⟨1, 0, none⟩ = some (.int .i64 m)) : Calls Tryz.prog 18 #[.string ⟨#[45, 62, 97]⟩, .int .i64 0] w fun e w' => e = .returned (.tuple #[.string ⟨#[]⟩, .int .i64 2]) ∧ Below w.heap.size w w' := by
  refine (commentC _ 0 m (by decide) w hm).mono ?_
  rintro e w' ⟨rfl, hb⟩
  rw [show tlS ⟨#[45, 62, 97]⟩ 0 = [45, 62, 97] from rfl, com_k2]
  exact ⟨rfl, hb⟩
theorem kD1 (m : Int) (w : World) (hm : w.cell? ⟨1, 0, none⟩ = some (.int .i64 m)) : Calls Tryz.prog 22 #[.string ⟨#[97, 93, 93, 98, 93, 93, 93, 62, 99]⟩, .int .i64 0] w fun e w' => e = .returned (.tuple #[.string ⟨#[97, 93, 93, 98, 93]⟩, .int .i64 8]) ∧ Below w.heap.size w w' := by
  refine (cdata _ 0 m (by decide) w hm).mono ?_
  rintro e w' ⟨rfl, hb⟩
  rw [show tlS ⟨#[97, 93, 93, 98, 93, 93, 93, 62, 99]⟩ 0 = [97, 93, 93, 98, 93, 93, 93, 62, 99] from rfl, show utL [93, 93, 62] [97, 93, 93, 98, 93, 93, 93, 62, 99] = ([97, 93, 93, 98, 93], 8) from by decide +kernel]
  exact ⟨rfl, hb⟩
theorem kT1 (m : Int) (w : World) (hc : CtlW w) (hm : w.cell? ⟨1, 0, none⟩ = some (.int .i64 m)) : Calls Tryz.prog 45 #[.string ⟨#[66, 114, 47, 32, 62, 120]⟩, .int .i64 0, .bool false] w fun e w' =>
    ∃ pa pn pc, e = .returned (.tuple #[tokA 2 ⟨#[98, 114]⟩ (.slice pa pn pc) false, .bool true, .int .i64 5]) ∧ Below w.heap.size w w' := by
  refine (tagC lgL (Lib.hid lgOk) _ 0 false m (by decide) w hc hm).mono ?_
  rintro e w' ⟨tk, cl, N, rfl, hb, _, hN, hor⟩
  rw [show tlS ⟨#[66, 114, 47, 32, 62, 120]⟩ 0 = [66, 114, 47, 32, 62, 120] from rfl, show tgRest [66, 114, 47, 32, 62, 120] = [47, 32, 62, 120] from by decide +kernel, tag_k, show tgName [66, 114, 47, 32, 62, 120] = [98, 114] from by decide +kernel] at hor
  rcases hor with ⟨_, _, _, h⟩ | ⟨rfl, acc, sc, v, h, hrow, _, rfl⟩
  · cases h
  · injection h with h
    injection h with h1 h
    injection h with h2 h3
    obtain rfl : N = 5 := drop_one h3.symm (n := 6) rfl hN
    subst h1 h2
    obtain ⟨pa, pn, pc, rfl⟩ : ∃ pa pn pc, v = .slice pa pn pc := by
      rcases hrow.2 with ⟨rfl, _⟩ | ⟨g, cap, cur, rfl, _⟩
      · exact ⟨_, _, _, rfl⟩
      · exact ⟨_, _, _, rfl⟩
    exact ⟨pa, pn, pc, rfl, hb⟩
theorem kL1 (w : World) : Calls Tryz.prog 31 #[.string ⟨#[60, 47, 104, 49, 62]⟩, .int .i64 0, .string ⟨#[104, 49]⟩] w fun e w' => e = .returned (.bool false) ∧ Below w.heap.size w w' := by
  have h := closesC ⟨#[60, 47, 104, 49, 62]⟩ 0 ⟨#[104, 49]⟩ (by decide) w
  rwa [show closesL (ByteArray.mk #[104, 49]).data.toList (tlS ⟨#[60, 47, 104, 49, 62]⟩ 0) = false from clo_k1] at h
theorem kL2 (w : World) : Calls Tryz.prog 31 #[.string ⟨#[60, 47, 84, 105, 116, 108, 101, 47]⟩, .int .i64 0, .string ⟨#[116, 105, 116, 108, 101]⟩] w fun e w' => e = .returned (.bool true) ∧ Below w.heap.size w w' := by
  have h := closesC ⟨#[60, 47, 84, 105, 116, 108, 101, 47]⟩ 0 ⟨#[116, 105, 116, 108, 101]⟩ (by decide) w
  rwa [show closesL (ByteArray.mk #[116, 105, 116, 108, 101]).data.toList (tlS ⟨#[60, 47, 84, 105, 116, 108, 101, 47]⟩ 0) = true from clo_k2] at h
theorem kO1 (m : Int) (w : World) (hm : w.cell? ⟨1, 0, none⟩ = some (.int .i64 m)) : Calls Tryz.prog 24 #[.string ⟨#[32, 97, 32, 83, 89, 83, 84, 69, 77, 39, 121, 39, 32, 122, 62]⟩, .int .i64 0] w fun e w' =>
    ∃ (hn : Bool) (pub : ByteArray), e = .returned (.tuple #[.agg #[.int .i64 1, .string ⟨#[97]⟩, .bool hn, .string pub, .bool false, .string ⟨#[121]⟩, .bool true, .bool false, .slice none 0 0, .bool false, .string ⟨#[]⟩, .int .i32 0], .int .i64 15]) ∧ Below w.heap.size w w' := by
  refine (doctypeC _ 0 m (by decide) w hm).mono ?_
  rintro e w' ⟨d, j, rfl, hb, _, hj, h⟩
  have hk := doc_k
  rw [show [32, 97, 32, 83, 89, 83, 84, 69, 77, 39, 121, 39, 32, 122, 62] = tlS ⟨#[32, 97, 32, 83, 89, 83, 84, 69, 77, 39, 121, 39, 32, 122, 62]⟩ 0 from rfl, h] at hk
  obtain ⟨st, q, name, hn, pub, hp, sys, hs, qk⟩ := d
  obtain ⟨h1, h2, h3, h4, h5, h6⟩ := hk
  obtain rfl : name = ⟨#[97]⟩ := list_bytes _ _ h1
  obtain rfl : sys = ⟨#[121]⟩ := list_bytes _ _ h3
  obtain rfl : hp = false := h2
  obtain rfl : hs = true := h4
  obtain rfl : qk = false := h5
  obtain rfl : j = 15 := drop_one h6 (n := 15) rfl hj
  exact ⟨hn, pub, rfl, hb⟩
theorem kS1 (m : Int) (w : World) (hm : w.cell? ⟨1, 0, none⟩ = some (.int .i64 m)) : Calls Tryz.prog 39 #[.string ⟨#[60, 33, 45, 45, 60, 115, 99, 114, 105, 112, 116, 62, 60, 47, 115, 99, 114, 105, 112, 116, 62, 60, 47, 115, 99, 114, 105, 112, 116, 62]⟩, .int .i64 0, .string ⟨#[115, 99, 114, 105, 112, 116]⟩] w fun e w' => e = .returned (.tuple #[.string ⟨#[60, 33, 45, 45, 60, 115, 99, 114, 105, 112, 116, 62, 60, 47, 115, 99, 114, 105, 112, 116, 62]⟩, .int .i64 21]) ∧ Below w.heap.size w w' := by
  refine (scriptC _ 0 _ m (by decide) w hm).mono ?_
  rintro e w' ⟨N, h, hN, rfl, hb⟩
  rw [show clip ⟨#[60, 33, 45, 45, 60, 115, 99, 114, 105, 112, 116, 62, 60, 47, 115, 99, 114, 105, 112, 116, 62, 60, 47, 115, 99, 114, 105, 112, 116, 62]⟩ 0 = 0 from rfl] at h hN ⊢
  have h' : _ = List.drop N _ := scr_k.symm.trans h
  obtain rfl : N = 21 := drop_one h'.symm (n := 30) rfl (by rw [Nat.zero_add] at hN; exact hN)
  exact ⟨rfl, hb⟩
theorem kA1 (m : Int) (w : World) (hc : CtlW w) (hm : w.cell? ⟨1, 0, none⟩ = some (.int .i64 m)) : Calls Tryz.prog 35 #[.string ⟨#[97, 38, 108, 116, 59, 60, 47, 98, 62, 60, 47, 97, 62]⟩, .int .i64 0, .string ⟨#[97]⟩] w fun e w' => e = .returned (.tuple #[.string ⟨#[97, 60, 60, 47, 98, 62]⟩, .int .i64 9]) ∧ Below w.heap.size w w' := by
  refine (rcdata lgL (Lib.hid lgOk) _ 0 _ m (by decide) w hc hm).mono ?_
  rintro e w' ⟨N, h, hN, rfl, hb⟩
  rw [show tlS ⟨#[97, 38, 108, 116, 59, 60, 47, 98, 62, 60, 47, 97, 62]⟩ 0 = [97, 38, 108, 116, 59, 60, 47, 98, 62, 60, 47, 97, 62] from rfl, show clip ⟨#[97, 38, 108, 116, 59, 60, 47, 98, 62, 60, 47, 97, 62]⟩ 0 = 0 from rfl] at *
  have h' : _ = List.drop N _ := stop_k.symm.trans h
  obtain rfl : N = 9 := drop_one h'.symm (n := 13) rfl (by rw [Nat.zero_add] at hN; exact hN)
  rw [show List.take 9 [97, 38, 108, 116, 59, 60, 47, 98, 62, 60, 47, 97, 62] = 97 :: 38 :: sLtb from rfl, res_ltb _ ref_ltb]
  exact ⟨rfl, hb⟩
end Go.Proofs.YtbjnolihaacahaaGreatDoor

namespace Go.Proofs.YtbjnolihaacahaaGreatDoor
open Go.RowKit Go.Shelf Go.Lib
set_option maxHeartbeats 2000000
set_option maxRecDepth 100000

theorem kof (s : ByteArray) (n : Int) (w : World) : Calls Tryz.prog 15 #[.string s, .int .i64 n] w fun e w' => e = .returned (.agg #[.string s, .int .i64 n]) ∧ Below w.heap.size w w' := by
  go_enter Tryz.func15, Tryz.ntmps15
  go_wp2_with fail
  refine bodyPost_ret (v := .agg #[.string s, .int .i64 n]) (by simp [results, Tryz.results15, go_sem]) rfl ⟨rfl, ?_⟩
  first | exact Below.refl _ _ | exact below_alloc (Below.refl _ _) _ | trace_state
theorem small02 (s : ByteArray) (w : World) : Calls Tryz.prog 13 #[.string s] w fun e w' => e = .returned (.bool (decide (s.size ≤ 4096))) ∧ w' = w := by
  go_enter Tryz.func13, Tryz.ntmps13
  go_wp2
  go_ret
  exact ⟨ret_bool (by rw [Bool.eq_iff_iff]; simp; omega), rfl⟩

theorem known02 (m : Int) (w : World) (hc : CtlW w) (hm : w.cell? ⟨1, 0, none⟩ = some (.int .i64 m)) :
    Calls Tryz.prog 14 #[] w fun e w' => e = .returned (.bool true) ∧ Below w.heap.size w w' := by
  have HM := Lib.hid hm
  have HC := Lib.hid hc
  clear hm hc
  have hb0 : Below w.heap.size w w := Below.refl _ _
  go_enter Tryz.func14, Tryz.ntmps14
  go_wp2_with fail
  refine (kR1 m w (HC.out.below hb0) (carry HM.out hb0)).mono ?_
  rintro e w1 ⟨rfl, hs1⟩
  have hb1 := below_next hb0 hs1
  clear hs1 hb0
  go_wp2_with fail
  refine (kof ⟨#[194, 172]⟩ 3 w1).mono ?_
  rintro e w2 ⟨rfl, hs2⟩
  have hb2 := below_next hb1 hs2
  clear hs2 hb1
  go_wp2_with fail
  refine (kof ⟨#[194, 172]⟩ 3 w2).mono ?_
  rintro e w3 ⟨rfl, hs3⟩
  have hb3 := below_next hb2 hs3
  clear hs3 hb2
  go_wp2_with fail
  refine (kR2 m w3 (HC.out.below hb3) (carry HM.out hb3)).mono ?_
  rintro e w4 ⟨rfl, hs4⟩
  have hb4 := below_next hb3 hs4
  clear hs4 hb3
  go_wp2_with fail
  refine (kof ⟨#[38, 110, 111, 116]⟩ 3 w4).mono ?_
  rintro e w5 ⟨rfl, hs5⟩
  have hb5 := below_next hb4 hs5
  clear hs5 hb4
  go_wp2_with fail
  refine (kof ⟨#[38, 110, 111, 116]⟩ 3 w5).mono ?_
  rintro e w6 ⟨rfl, hs6⟩
  have hb6 := below_next hb5 hs6
  clear hs6 hb5
  go_wp2_with fail
  refine (kR3 m w6 (HC.out.below hb6) (carry HM.out hb6)).mono ?_
  rintro e w7 ⟨rfl, hs7⟩
  have hb7 := below_next hb6 hs7
  clear hs7 hb6
  go_wp2_with fail
  refine (kof ⟨#[38, 35, 120]⟩ 2 w7).mono ?_
  rintro e w8 ⟨rfl, hs8⟩
  have hb8 := below_next hb7 hs8
  clear hs8 hb7
  go_wp2_with fail
  refine (kof ⟨#[38, 35, 120]⟩ 2 w8).mono ?_
  rintro e w9 ⟨rfl, hs9⟩
  have hb9 := below_next hb8 hs9
  clear hs9 hb8
  go_wp2_with fail
  refine (kR4 m w9 (HC.out.below hb9) (carry HM.out hb9)).mono ?_
  rintro e w10 ⟨rfl, hs10⟩
  have hb10 := below_next hb9 hs10
  clear hs10 hb9
  go_wp2_with fail
  refine (kof ⟨#[226, 130, 172]⟩ 4 w10).mono ?_
  rintro e w11 ⟨rfl, hs11⟩
  have hb11 := below_next hb10 hs11
  clear hs11 hb10
  go_wp2_with fail
  refine (kof ⟨#[226, 130, 172]⟩ 4 w11).mono ?_
  rintro e w12 ⟨rfl, hs12⟩
  have hb12 := below_next hb11 hs12
  clear hs12 hb11
  go_wp2_with fail
  refine (kC1 m w12 (carry HM.out hb12)).mono ?_
  rintro e w13 ⟨rfl, hs13⟩
  have hb13 := below_next hb12 hs13
  clear hs13 hb12
  go_wp2_with fail
  refine (kof ⟨#[97, 45, 45, 98]⟩ 7 w13).mono ?_
  rintro e w14 ⟨rfl, hs14⟩
  have hb14 := below_next hb13 hs14
  clear hs14 hb13
  go_wp2_with fail
  refine (kof ⟨#[97, 45, 45, 98]⟩ 7 w14).mono ?_
  rintro e w15 ⟨rfl, hs15⟩
  have hb15 := below_next hb14 hs15
  clear hs15 hb14
  go_wp2_with fail
  refine (kC2 m w15 (carry HM.out hb15)).mono ?_
  rintro e w16 ⟨rfl, hs16⟩
  have hb16 := below_next hb15 hs16
  clear hs16 hb15
  go_wp2_with fail
  refine (kof ⟨#[]⟩ 2 w16).mono ?_
  rintro e w17 ⟨rfl, hs17⟩
  have hb17 := below_next hb16 hs17
  clear hs17 hb16
  go_wp2_with fail
  refine (kof ⟨#[]⟩ 2 w17).mono ?_
  rintro e w18 ⟨rfl, hs18⟩
  have hb18 := below_next hb17 hs18
  clear hs18 hb17
  go_wp2_with fail
  refine (kD1 m w18 (carry HM.out hb18)).mono ?_
  rintro e w19 ⟨rfl, hs19⟩
  have hb19 := below_next hb18 hs19
  clear hs19 hb18
  go_wp2_with fail
  refine (kof ⟨#[97, 93, 93, 98, 93]⟩ 8 w19).mono ?_
  rintro e w20 ⟨rfl, hs20⟩
  have hb20 := below_next hb19 hs20
  clear hs20 hb19
  go_wp2_with fail
  refine (kof ⟨#[97, 93, 93, 98, 93]⟩ 8 w20).mono ?_
  rintro e w21 ⟨rfl, hs21⟩
  have hb21 := below_next hb20 hs21
  clear hs21 hb20
  go_wp2_with fail
  refine (kT1 m w21 (HC.out.below hb21) (carry HM.out hb21)).mono ?_
  rintro e w22 ⟨pa, pn, pc, rfl, hs22⟩
  unfold tokA
  have hb22 := below_next hb21 hs22
  clear hs22 hb21
  go_wp2_with fail
  obtain ⟨w22a, hwa⟩ : ∃ x, x = w22.alloc (.cells #[.int .i64 2, .string ⟨#[98, 114]⟩, .bool false, .string ⟨#[]⟩, .bool false, .string ⟨#[]⟩, .bool false, .bool false, .slice pa pn pc, .bool false, .string ⟨#[]⟩, .int .i32 0] 35) := ⟨_, rfl⟩
  rw [← hwa]
  replace hb22 : Below w.heap.size w w22a := by rw [hwa]; exact below_alloc hb22 _
  clear hwa
  refine (kL1 w22a).mono ?_
  rintro e w23 ⟨rfl, hs23⟩
  have hb23 := below_next hb22 hs23
  clear hs23 hb22
  go_wp2_with fail
  refine (kL2 w23).mono ?_
  rintro e w24 ⟨rfl, hs24⟩
  have hb24 := below_next hb23 hs24
  clear hs24 hb23
  go_wp2_with fail
  refine (kO1 m w24 (carry HM.out hb24)).mono ?_
  rintro e w25 ⟨qhn, qpub, rfl, hs25⟩
  have hb25 := below_next hb24 hs25
  clear hs25 hb24
  go_wp2_with fail
  obtain ⟨w25a, hwa⟩ : ∃ x, x = w25.alloc (.cells #[.int .i64 1, .string ⟨#[97]⟩, .bool qhn, .string qpub, .bool false, .string ⟨#[121]⟩, .bool true, .bool false, .slice none 0 0, .bool false, .string ⟨#[]⟩, .int .i32 0] 35) := ⟨_, rfl⟩
  rw [← hwa]
  replace hb25 : Below w.heap.size w w25a := by rw [hwa]; exact below_alloc hb25 _
  clear hwa
  refine (kS1 m w25a (carry HM.out hb25)).mono ?_
  rintro e w26 ⟨rfl, hs26⟩
  have hb26 := below_next hb25 hs26
  clear hs26 hb25
  go_wp2_with fail
  refine (kof ⟨#[60, 33, 45, 45, 60, 115, 99, 114, 105, 112, 116, 62, 60, 47, 115, 99, 114, 105, 112, 116, 62]⟩ 21 w26).mono ?_
  rintro e w27 ⟨rfl, hs27⟩
  have hb27 := below_next hb26 hs27
  clear hs27 hb26
  go_wp2_with fail
  refine (kof ⟨#[60, 33, 45, 45, 60, 115, 99, 114, 105, 112, 116, 62, 60, 47, 115, 99, 114, 105, 112, 116, 62]⟩ 21 w27).mono ?_
  rintro e w28 ⟨rfl, hs28⟩
  have hb28 := below_next hb27 hs28
  clear hs28 hb27
  go_wp2_with fail
  refine (kA1 m w28 (HC.out.below hb28) (carry HM.out hb28)).mono ?_
  rintro e w29 ⟨rfl, hs29⟩
  have hb29 := below_next hb28 hs29
  clear hs29 hb28
  go_wp2_with fail
  refine (kof ⟨#[97, 60, 60, 47, 98, 62]⟩ 9 w29).mono ?_
  rintro e w30 ⟨rfl, hs30⟩
  have hb30 := below_next hb29 hs30
  clear hs30 hb29
  go_wp2_with fail
  refine (kof ⟨#[97, 60, 60, 47, 98, 62]⟩ 9 w30).mono ?_
  rintro e w31 ⟨rfl, hs31⟩
  have hb31 := below_next hb30 hs31
  clear hs31 hb30
  go_wp2_with fail
  go_ret
  exact ⟨rfl, hb31⟩
end Go.Proofs.YtbjnolihaacahaaGreatDoor

namespace Go.Proofs.YtbjnolihaacahaaGreatDoor
set_option maxRecDepth 100000

def onlyN (n val : List UInt8) (T : List (List UInt8)) : Bool := T.any (fun e => nameOf e == n) && T.all (fun e => !(n.isPrefixOf (nameOf e)) || (nameOf e == n && valL (codesOf e) == val))
theorem q3_b : (onlyN [97, 109, 112, 59] [38] (parts 32 NM.data.toList) && onlyN [113, 117, 111, 116, 59] [34] (parts 32 NM.data.toList) && onlyN [110, 98, 115, 112, 59] [194, 160] (parts 32 NM.data.toList)) = true := by decide +kernel
theorem only_T (T : List (List UInt8)) (n val : List UInt8) (hn : 0 < n.length) (h : onlyN n val T = true) (r : List UInt8) : lgT T (n ++ r) = (n.length, val) := by
  unfold onlyN at h
  rw [Bool.and_eq_true] at h
  obtain ⟨hany, hall⟩ := h
  obtain ⟨e, he, hen⟩ := List.any_eq_true.1 hany
  rw [beq_iff_eq] at hen
  have hpe : nameOf e <+: n ++ r := by rw [hen]; exact List.prefix_append n r
  unfold lgT
  rcases lgStep_spec (n ++ r) T (0, []) with ⟨h1, h2⟩ | ⟨e1, he1, hp, h1, _, h3⟩
  · have := h2 e he hpe
    rw [hen] at this
    exact absurd this (by show ¬ n.length ≤ 0; omega)
  · have hl := h3 e he hpe
    rw [hen] at hl
    have hpp : n <+: nameOf e1 := List.prefix_of_prefix_length_le (List.prefix_append n r) hp hl
    have ha := List.all_eq_true.1 hall e1 he1
    rw [List.isPrefixOf_iff_prefix.2 hpp] at ha
    simp only [Bool.not_true, Bool.false_or, Bool.and_eq_true, beq_iff_eq] at ha
    rw [h1, ha.1, ha.2]
theorem lg_amp (r : List UInt8) : lgL ([97, 109, 112, 59] ++ r) = (4, [38]) := by
  have h := q3_b
  simp only [Bool.and_eq_true] at h
  exact only_T ENT _ _ (by decide) h.1.1 r
theorem lg_quot (r : List UInt8) : lgL ([113, 117, 111, 116, 59] ++ r) = (5, [34]) := by
  have h := q3_b
  simp only [Bool.and_eq_true] at h
  exact only_T ENT _ _ (by decide) h.1.2 r
theorem lg_nbsp (r : List UInt8) : lgL ([110, 98, 115, 112, 59] ++ r) = (5, [194, 160]) := by
  have h := q3_b
  simp only [Bool.and_eq_true] at h
  exact only_T ENT _ _ (by decide) h.2 r
end Go.Proofs.YtbjnolihaacahaaGreatDoor

namespace Go.Proofs.YtbjnolihaacahaaGreatDoor
open Go.Lib
set_option maxRecDepth 100000

theorem ref_semi (lg : List UInt8 → Nat × List UInt8) {c : UInt8} {n r val : List UInt8} (hal : alU c = true) (hs : hasSuffix (c :: n) [59] = true) (h : lg (c :: n ++ r) = ((c :: n).length, val)) : refL lg true (c :: n ++ r) = (val, (c :: n).length) := by
  have e : refL lg true (c :: n ++ r) = namedL lg true (c :: n ++ r) := refL_al lg true _ hal
  rw [e]
  unfold namedL
  rw [h]
  simp only
  rw [if_neg (by simp), List.take_left, hs]
  rfl
theorem r_amp (r : List UInt8) : refL lgL true ([97, 109, 112, 59] ++ r) = ([38], 4) := ref_semi lgL (by decide) (by decide) (lg_amp r)
theorem r_quot (r : List UInt8) : refL lgL true ([113, 117, 111, 116, 59] ++ r) = ([34], 5) := ref_semi lgL (by decide) (by decide) (lg_quot r)
theorem r_nbsp (r : List UInt8) : refL lgL true ([110, 98, 115, 112, 59] ++ r) = ([194, 160], 5) := ref_semi lgL (by decide) (by decide) (lg_nbsp r)

theorem rep1_cons (c : UInt8) (N : List UInt8) (b : UInt8) (t : List UInt8) : rep1 c N (b :: t) = (if b = c then N else [b]) ++ rep1 c N t := by simp [rep1]
theorem rep2_ne (c d : UInt8) (N : List UInt8) (b : UInt8) : ∀ (Y : List UInt8), ¬ (b = c ∧ Y.head? = some d) → rep2 c d N (b :: Y) = b :: rep2 c d N Y
  | [], _ => rfl
  | x :: t, h => by
    rw [rep2, if_neg]
    intro ⟨h1, h2⟩
    exact h ⟨h1, by rw [h2]; rfl⟩
theorem rep1_head (A t : List UInt8) (h : (rep1 38 (38 :: A) t).head? = some 160) : t.head? = some 160 := by
  cases t with
  | nil => exact h
  | cons x t =>
    rw [rep1_cons] at h
    by_cases hx : x = 38
    · rw [if_pos hx] at h
      simp at h
    · rw [if_neg hx] at h
      simpa using h
theorem esc_b (b : UInt8) (t : List UInt8) (h38 : b ≠ 38) (h34 : b ≠ 34) (h : ¬ (b = 194 ∧ t.head? = some 160)) : escVL (b :: t) = b :: escVL t := by
  unfold escVL shrL
  rw [rep1_cons, if_neg h38]
  show rep1 34 _ (rep2 194 160 _ (b :: rep1 38 _ t)) = _
  rw [rep2_ne _ _ _ _ _ (fun e => h ⟨e.1, rep1_head _ _ e.2⟩), rep1_cons, if_neg h34]
  rfl
theorem esc_q (t : List UInt8) : escVL (34 :: t) = 38 :: ([113, 117, 111, 116, 59] ++ escVL t) := by
  unfold escVL shrL
  rw [rep1_cons, if_neg (by decide)]
  show rep1 34 _ (rep2 194 160 _ (34 :: rep1 38 _ t)) = _
  rw [rep2_ne _ _ _ _ _ (fun e => absurd e.1 (by decide)), rep1_cons, if_pos rfl]
  rfl
theorem esc_a (t : List UInt8) : escVL (38 :: t) = 38 :: ([97, 109, 112, 59] ++ escVL t) := by
  unfold escVL shrL
  rw [rep1_cons, if_pos rfl]
  show rep1 34 _ (rep2 194 160 _ (38 :: 97 :: 109 :: 112 :: 59 :: rep1 38 _ t)) = _
  rw [rep2_ne _ _ _ _ _ (fun e => absurd e.1 (by decide)), rep2_ne _ _ _ _ _ (fun e => absurd e.1 (by decide)), rep2_ne _ _ _ _ _ (fun e => absurd e.1 (by decide)), rep2_ne _ _ _ _ _ (fun e => absurd e.1 (by decide)), rep2_ne _ _ _ _ _ (fun e => absurd e.1 (by decide))]
  rfl
theorem esc_n (t : List UInt8) : escVL (194 :: 160 :: t) = 38 :: ([110, 98, 115, 112, 59] ++ escVL t) := by
  unfold escVL shrL
  rw [rep1_cons, if_neg (by decide), rep1_cons, if_neg (by decide)]
  show rep1 34 _ (rep2 194 160 _ (194 :: 160 :: rep1 38 _ t)) = _
  rw [rep2, if_pos ⟨rfl, rfl⟩]
  rfl
theorem res_esc : ∀ (k : Nat) (v : List UInt8), v.length ≤ k → (∀ x ∈ v, x ≠ 0) → res (refL lgL true) (escVL v) = v
  | _, [], _, _ => rfl
  | 0, b :: t, h, _ => by simp at h
  | k + 1, b :: t, h, hz => by
    have hl : t.length ≤ k := by simpa using h
    have ht : ∀ x ∈ t, x ≠ 0 := fun x hx => hz x (by simp [hx])
    by_cases h38 : b = 38
    · subst h38
      rw [esc_a, res_amp, r_amp]
      show [38] ++ res _ (escVL t) = _
      rw [res_esc k t hl ht]
      rfl
    · by_cases h34 : b = 34
      · subst h34
        rw [esc_q, res_amp, r_quot]
        show [34] ++ res _ (escVL t) = _
        rw [res_esc k t hl ht]
        rfl
      · by_cases h2 : b = 194 ∧ t.head? = some 160
        · obtain ⟨rfl, h2⟩ := h2
          cases t with
          | nil => cases h2
          | cons x t =>
            obtain rfl : x = 160 := by simpa using h2
            rw [esc_n, res_amp, r_nbsp]
            show [194, 160] ++ res _ (escVL t) = _
            rw [res_esc k t (by simp at hl; omega) (fun x hx => ht x (by simp [hx]))]
            rfl
        · rw [esc_b b t h38 h34 h2, res_b _ _ _ h38, res_esc k t hl ht]
          have : nul1 b = [b] := by unfold nul1; exact if_neg (hz b (by simp))
          rw [this]
          rfl
theorem esc_no (v : List UInt8) : ∀ x ∈ escVL v, x ≠ 34 := by
  intro x hx
  unfold escVL rep1 at hx
  obtain ⟨b, _, hb⟩ := List.mem_flatMap.1 hx
  by_cases h : b = 34
  · rw [if_pos h] at hb
    rintro rfl
    revert hb
    decide
  · rw [if_neg h] at hb
    rw [List.mem_singleton.1 hb]
    exact h
theorem run_to (m : List UInt8) : ∀ E : List UInt8, (∀ x ∈ E, x ≠ 34) → runN (fun b => b == 34) (E ++ 34 :: m) = E.length
  | [], _ => runN_yes _ rfl
  | b :: t, h => by
    rw [List.cons_append, runN_no (q := fun b => b == 34) _ (by simpa using h b (by simp)), run_to m t (fun x hx => h x (by simp [hx]))]
    rfl
/-- A value that is escaped and put in quotes is read back. -/
theorem va_back (v more : List UInt8) (hz : ∀ x ∈ v, x ≠ 0) : vaL (refL lgL true) (32 :: 34 :: (escVL v ++ 34 :: more)) = some (v, more) := by
  have hE := run_to more (escVL v) (esc_no v)
  have hR := res_esc v.length v (Nat.le_refl _) hz
  generalize refL lgL true = R at hR ⊢
  generalize escVL v = E at hE hR ⊢
  have hsk : sk (32 :: 34 :: (E ++ 34 :: more)) = 34 :: (E ++ 34 :: more) := by
    unfold sk
    rw [runN_no _ (by decide), runN_yes _ (by decide)]
    rfl
  unfold vaL
  rw [hsk]
  simp only
  rw [if_pos (by decide), hE, if_pos (by simp), List.take_left, hR, ← List.drop_drop, List.drop_left]
  rfl
end Go.Proofs.YtbjnolihaacahaaGreatDoor

namespace Go.Proofs.YtbjnolihaacahaaGreatDoor
open Go.RowKit Go.Shelf Go.Lib
set_option maxHeartbeats 4000000
set_option maxRecDepth 100000

theorem escVL_len (l : List UInt8) : (escVL l).length ≤ 180 * l.length := by
  have h1 := shrL_len l
  have h2 := rep1_len 34 [38, 113, 117, 111, 116, 59] 6 (by decide) (by decide) (shrL l)
  show (rep1 34 _ (shrL l)).length ≤ _
  omega
theorem lawQuotes (v more : ByteArray) (m : Int) (w : World) (hm : w.cell? ⟨1, 0, none⟩ = some (.int .i64 m)) (hc : CtlW w) :
    Calls Tryz.prog 11 #[.string v, .string more] w fun e w' => e = .returned (.bool true) ∧ Below w.heap.size w w' := by
  have HM := Lib.hid hm
  have HC := Lib.hid hc
  have HS1 := Lib.hid (small02 v)
  have HS2 := Lib.hid (small02 more)
  have HK := Lib.hid (known02 m w hc hm)
  clear hm hc
  by_cases h1 : v.size ≤ 4096
  · rw [decide_eq_true h1] at HS1
    by_cases h2 : more.size ≤ 4096
    · rw [decide_eq_true h2] at HS2
      have HH := Lib.hid (rHas v 0 (by unfold maxLen; omega))
      obtain ⟨z, hz⟩ : ∃ z, z = allB (fun b => !(b == (0 : Int))) v := ⟨_, rfl⟩
      rw [← hz] at HH
      have HZ := Lib.hid hz
      have H1 := Lib.hid h1
      have H2 := Lib.hid h2
      clear hz h1 h2
      cases z
      · go_enter Tryz.func11, Tryz.ntmps11
        go_wp2_with fail
        refine (HS1.out w).mono ?_
        rintro e w' ⟨rfl, rfl⟩
        go_wp2_with fail
        refine (HS2.out w').mono ?_
        rintro e w2 ⟨rfl, rfl⟩
        go_wp2_with fail
        refine (HH.out w2).mono ?_
        rintro e w3 ⟨rfl, rfl⟩
        go_wp2_with fail
        refine HK.out.mono ?_
        rintro e w4 ⟨rfl, hb⟩
        go_wp2_with fail
        go_ret
        exact ⟨rfl, hb⟩
      · have HE := Lib.hid (escapeValue v m (by have := H1.out; omega) w HM.out)
        have hnz : ∀ x ∈ v.data.toList, x ≠ 0 := by
          intro x hx e
          have hz := HZ.out.symm
          unfold allB at hz
          have := List.all_eq_true.1 hz x hx
          rw [e] at this
          simp at this
        have HNZ := Lib.hid hnz
        clear hnz
        go_enter Tryz.func11, Tryz.ntmps11
        go_wp2_with fail
        refine (HS1.out w).mono ?_
        rintro e w' ⟨rfl, rfl⟩
        go_wp2_with fail
        refine (HS2.out w').mono ?_
        rintro e w2 ⟨rfl, rfl⟩
        go_wp2_with fail
        refine (HH.out w2).mono ?_
        rintro e w3 ⟨rfl, rfl⟩
        go_wp2_with fail
        refine HE.out.mono ?_
        rintro e w4 ⟨S, hS, rfl, hb4⟩
        have hSz : S.size ≤ 737280 := by
          have h := escVL_len v.data.toList
          rw [← hS, size_list, size_list] at h
          have := H1.out
          omega
        have HS := Lib.hid hS
        have hm4 : more.size ≤ 4096 := H2.out
        clear hS
        go_wp2_with fail
        obtain ⟨Q, hQ⟩ : ∃ Q, Q = (⟨#[34]⟩ : ByteArray) ++ S ++ ⟨#[34]⟩ := ⟨_, rfl⟩
        rw [← hQ]
        have hQl : Q.data.toList = 34 :: (escVL v.data.toList ++ [34]) := by
          rw [hQ, ByteArray.data_append, ByteArray.data_append, Array.toList_append, Array.toList_append, HS.out]
          rfl
        have hQs : Q.size = S.size + 2 := by
          rw [hQ, ByteArray.size_append, ByteArray.size_append]
          show 1 + S.size + 1 = _
          omega
        obtain ⟨B, hB⟩ : ∃ B, B = (⟨#[32]⟩ : ByteArray) ++ Q ++ more := ⟨_, rfl⟩
        rw [← hB]
        have hBl : B.data.toList = 32 :: 34 :: (escVL v.data.toList ++ 34 :: more.data.toList) := by
          rw [hB, ByteArray.data_append, ByteArray.data_append, Array.toList_append, Array.toList_append, hQl]
          show 32 :: 34 :: ((escVL v.data.toList ++ [34]) ++ more.data.toList) = _
          rw [List.append_assoc]
          rfl
        have hBs : B.size = Q.size + 1 + more.size := by
          rw [hB, ByteArray.size_append, ByteArray.size_append]
          show 1 + Q.size + more.size = _
          omega
        have HV := Lib.hid (valueC lgL (Lib.hid lgOk) B 0 m (by omega) w4 (HC.out.below hb4) (carry HM.out hb4))
        have HBl := Lib.hid hBl
        have HBs := Lib.hid hBs
        have hq : Q.size ≤ 800000 := by omega
        clear hQ hQl hQs hB hBl hBs hSz hm4
        refine HV.out.mono ?_
        rintro e w5 ⟨V, cl, N, rfl, _, hN, hor, hb5⟩
        have hb5' := below_next hb4 hb5
        have htl : tlS B 0 = B.data.toList := by
          unfold tlS
          have : clip B 0 = 0 := by unfold clip; omega
          rw [this]; rfl
        rw [htl, HBl.out, va_back _ _ HNZ.out] at hor
        rcases hor with ⟨rfl, h⟩ | ⟨_, _, _, h⟩
        · injection h with h
          injection h with ha hb
          have hV : V = v := list_bytes _ _ ha.symm
          have hNn : N = Q.size + 1 := by
            have h3 := congrArg List.length hb
            rw [← HBl.out, List.length_drop, size_list, size_list, HBs.out] at h3
            have := HBs.out
            omega
          rw [hV]
          have d1 : ((N : Int) == (Q.size : Int) + 1) = true := by rw [beq_iff_eq]; omega
          have HKn := Lib.hid (known02 m w5 (HC.out.below hb5') (carry HM.out hb5'))
          clear ha hb hV hNn hN hb5 htl hb4
          go_wp2_with fail
          refine HKn.out.mono ?_
          rintro e w6 ⟨rfl, hb6⟩
          go_wp2_with fail
          go_ret
          exact ⟨rfl, below_next hb5' hb6⟩
        · cases h
    · rw [decide_eq_false h2] at HS2
      clear h1 h2
      go_enter Tryz.func11, Tryz.ntmps11
      go_wp2_with fail
      refine (HS1.out w).mono ?_
      rintro e w' ⟨rfl, rfl⟩
      go_wp2_with fail
      refine (HS2.out w').mono ?_
      rintro e w2 ⟨rfl, rfl⟩
      go_wp2_with fail
      refine HK.out.mono ?_
      rintro e w4 ⟨rfl, hb⟩
      go_wp2_with fail
      go_ret
      exact ⟨rfl, hb⟩
  · rw [decide_eq_false h1] at HS1
    clear h1
    go_enter Tryz.func11, Tryz.ntmps11
    go_wp2_with fail
    refine (HS1.out w).mono ?_
    rintro e w' ⟨rfl, rfl⟩
    go_wp2_with fail
    refine HK.out.mono ?_
    rintro e w4 ⟨rfl, hb⟩
    go_wp2_with fail
    go_ret
    exact ⟨rfl, hb⟩
end Go.Proofs.YtbjnolihaacahaaGreatDoor

namespace Go.Proofs.YtbjnolihaacahaaGreatDoor
open Go.ChangeShapes Go.WideShapes Go.ChangeAt Go.RowKit
set_option maxRecDepth 100000

def laidC : List (String × DataW Unit) := [("unicode/utf8.acceptRanges", Rows.laid_unicode_utf8_acceptRanges), ("thicket/text.controls", Rows.laid_thicket_text_controls), ("unicode/utf8.first", Rows.laid_unicode_utf8_first)]
theorem doorC_os (os : Os) : (World.laidAll Tryz.prog os laidC).os = os := World.laidAll_os _ _ _
theorem doorC_met (os : Os) (args : Array Value) : laidMetH Tryz.prog laidC ((World.laidAll Tryz.prog os laidC).forCall (fun _ _ => 0) ⟨#[], args, []⟩).memory := by
  rw [MakeChecks.laidMetH_plain _ _ _ (by kernel_rfl)]
  exact laidMet_laidAll _ (by kernel_rfl) (by kernel_rfl)

theorem gCtl : Tryz.prog.globalNamed "thicket/text.controls" = some 0 := by kernel_rfl
theorem tCtl : (Tryz.prog.globals[0]?).map (·.type) = some 126 := by kernel_rfl
theorem cCtl : Tryz.prog.cellsOf 21 = 1 := by kernel_rfl
theorem ctlD : (Rows.laid_thicket_text_controls : DataW Unit) = .agg (ctlT.map fun z => .lit (.int .i32 z)) := rfl

theorem ctl_of_laid {W : World} (h : laidMetH Tryz.prog laidC W) : CtlW W := by
  rw [MakeChecks.laidMetH_plain _ _ _ (by kernel_rfl)] at h
  obtain ⟨ps, ⟨g0, t0, cs0, f0, p0, q0, hg0, ht0, hv0, hd0, ⟨g1, t1, cs1, f1, p1, q1, hg1, ht1, hv1, hd1, _, _⟩, _⟩, _⟩ := h
  obtain rfl := Option.some.inj (gCtl.symm.trans hg1)
  obtain rfl := Option.some.inj (tCtl.symm.trans ht1)
  obtain ⟨xs, m1, rfl, hx1, hlen, hn, hel⟩ := DataW.trod_array Tryz.underlying126 hd1
  intro k hk
  have h1 := hel k hk
  rw [cCtl, Nat.mul_one] at h1
  have hxk : xs[k]? = some (xs[k]'(by omega)) := List.getElem?_eq_getElem (by omega)
  rw [hxk] at h1
  obtain ⟨z, e1, e2, _⟩ := DataW.trod_int Tryz.underlying21 h1
  have hz : z = ctlT.getD k 0 := by
    have hx2 := congrArg Prod.fst hx1
    rw [ctlD] at hx2
    simp only [DataW.agg.injEq] at hx2
    have h3 : (ctlT.map fun z => (DataW.lit (.int .i32 z) : DataW Unit))[k]? = (xs.map (·.1))[k]? := by rw [hx2]
    rw [List.getElem?_map, List.getElem?_map, hxk, e2] at h3
    have hk2 : k < ctlT.length := hk
    rw [List.getElem?_eq_getElem hk2] at h3
    simp at h3
    rw [List.getD_eq_getElem?_getD, List.getElem?_eq_getElem hk2]
    simpa using h3.symm
  rw [World.var?_cell hg1 hv1 k, ← hz]
  have h4 : (cs1.toList.drop k)[0]? = some (.int .i32 z) := by
    have := congrArg (fun l => l[0]?) e1
    simp only [List.getElem?_take] at this
    simpa using this
  rw [List.getElem?_drop, Nat.add_zero, Array.getElem?_toList] at h4
  exact h4

/-- A row whose start is said to hold more, with the shapes and the listed variables at hand. -/
theorem handedC {H : Type} {enc : TypeId × Value → H} {a : Assume} {os : Os} {f : FuncId} {fn : Func} {s : ChangeSpec} {conds : List PathCond} {apart fresh handsOn again : Bool}
    (own : ownKnob Tryz.prog.godebug = none) (started : os.Started) (noInit : Tryz.prog.inits.idxOf? f = none) (hfn : Tryz.prog.funcs[f]? = some fn)
    (witness : ∃ (w : World) (tape : Tape) (i : Input), w.os = os ∧ (w.forCall tape i).Shaped Tryz.prog ∧ i.vars = [] ∧ Input.okWide Tryz.prog (w.forCall tape i) .any w.heap.size f i ∧
      ((s.pre enc Tryz.prog fn conds apart (w.forCall tape i).memory i.args ∧ laidMetH Tryz.prog laidC (w.forCall tape i).memory) ∧ sizedMet enc Tryz.prog fn (OpenSpec.ofChange s) apart (w.forCall tape i).memory i.args) ∧ a.holds Tryz.prog (lone (Frame.enter Tryz.prog f i.args .normal) [] (w.forCall tape i)))
    (walk : ∀ (W : World) (base : Nat) (args : Array Value) (ds gs : List (DataW H)) (before : List MemPlace),
      (∀ (j : Nat) t v, fn.params[j]? = some t → args[j]? = some v → Value.okWide Tryz.prog W .any base t v) →
      DataW.Whole enc Tryz.prog fn.params.toList s.vars apart W args.toList ds gs before → W.ShapedOpen Tryz.prog → CtlW W →
      Calls Tryz.prog f args W fun e W' => ∃ v, e = .returned v ∧ s.post enc Tryz.prog fn apart fresh handsOn again W args v W') :
    ReturnsInHanded a Tryz.checked os f .any (fun w args => (s.pre enc Tryz.prog fn conds apart w args ∧ laidMetH Tryz.prog laidC w) ∧ sizedMet enc Tryz.prog fn (OpenSpec.ofChange s) apart w args) (s.post enc Tryz.prog fn apart fresh handsOn again) := by
  refine returnsInHanded_of_calls (C := Tryz.checked) own started (by exact noInit) witness ?_
  intro w tape i _ hsh _ hok hpre _
  obtain ⟨_, _, _, fn', hfn', _, _, _, _, hval⟩ := hok
  obtain rfl : fn' = fn := Option.some.inj (hfn'.symm.trans hfn)
  obtain ⟨⟨⟨ds, gs, before, hw, _⟩, hX⟩, _⟩ := hpre
  refine (walk (w.forCall tape i) w.heap.size i.args ds gs before hval (DataW.Whole.of_heap (w' := w.forCall tape i) (by rfl) hw) hsh (ctl_of_laid (laidMetH.of_heap (w' := w.forCall tape i) (by rfl) hX))).mono fun e W' ⟨v, he, hp⟩ => ?_
  subst he
  exact ChangeSpec.post_blind hp
end Go.Proofs.YtbjnolihaacahaaGreatDoor
