/-
  The scanner's examples: what the readers answer at them.
  The scanner's examples: the rows that each statement checks.
  ScanCommentsBack: the data of a comment is read back, and what any comment is read as is such data.
  A call of Reference whose answer is known.
  The document's reader of character references: numbers, and all.
  The document's reader of character references.
  The document's readers of raw text: where an end tag closes it.
  The document's readers of raw text, with and without references.
  The document's readers: spaces, letters, the name of a tag.
  A document type declaration, in the document's own order of words. No program in sight.
-/
import Derived.Test.YtnfccckodgknjaaGreatDoorY35
import Derived.Test.YtnfccckodgknjaaGreatDoorY37
import Derived.Test.YtnfccckodgknjaaGreatDoorY38
import Derived.Test.YtnfccckodgknjaaGreatDoorY39
import Derived.Test.YtnfccckodgknjaaGreatDoorY46
import Derived.Test.YtnfccckodgknjaaGreatDoorY41
import Derived.Test.YtnfccckodgknjaaGreatDoorY31
import Derived.Test.YtnfccckodgknjaaGreatDoorY02
import Derived.Test.YtnfccckodgknjaaGreatDoorY24
import Derived.Test.YtnfccckodgknjaaGreatDoorY27
import Derived.Test.YtnfccckodgknjaaGreatDoorY23
namespace Go.Proofs.YtnfccckodgknjaaGreatDoor
open Go.RowKit Go.Shelf Go.Lib
set_option maxHeartbeats 2000000
set_option maxRecDepth 100000

theorem drop_one {l : List UInt8} {N n : Nat} {r : List UInt8} (h : l.drop N = r) (hl : l.length = n) (hn : N ≤ n) : N = n - r.length := by
  have := congrArg List.length h
  rw [List.length_drop, hl] at this
  omega
theorem kR1 (m : Int) (w : World) (hc : CtlW w) (hm : w.cell? ⟨1, 0, none⟩ = some (.int .i64 m)) : Calls Tryz.prog 49 #[.string ⟨#[110, 111, 116, 105, 116, 59]⟩, .int .i64 0, .bool false] w fun e w' => e = .returned (.tuple #[.string ⟨#[194, 172]⟩, .int .i64 3]) ∧ Below w.heap.size w w' := by
  refine (referenceC lgL (Lib.hid lgOk) _ 0 false m (by decide) w hc hm).mono ?_
  rintro e w' ⟨V, N, rfl, hV, hN, _, hb⟩
  rw [show tlS ⟨#[110, 111, 116, 105, 116, 59]⟩ 0 = sNotit from rfl, ref_notF] at hV hN
  obtain rfl : V = ⟨#[194, 172]⟩ := list_bytes _ _ hV
  subst hN
  exact ⟨rfl, hb⟩
theorem kR2 (m : Int) (w : World) (hc : CtlW w) (hm : w.cell? ⟨1, 0, none⟩ = some (.int .i64 m)) : Calls Tryz.prog 49 #[.string ⟨#[110, 111, 116, 105, 116, 59]⟩, .int .i64 0, .bool true] w fun e w' => e = .returned (.tuple #[.string ⟨#[38, 110, 111, 116]⟩, .int .i64 3]) ∧ Below w.heap.size w w' := by
  refine (referenceC lgL (Lib.hid lgOk) _ 0 true m (by decide) w hc hm).mono ?_
  rintro e w' ⟨V, N, rfl, hV, hN, _, hb⟩
  rw [show tlS ⟨#[110, 111, 116, 105, 116, 59]⟩ 0 = sNotit from rfl, ref_notT] at hV hN
  obtain rfl : V = ⟨#[38, 110, 111, 116]⟩ := list_bytes _ _ hV
  subst hN
  exact ⟨rfl, hb⟩
theorem kR3 (m : Int) (w : World) (hc : CtlW w) (hm : w.cell? ⟨1, 0, none⟩ = some (.int .i64 m)) : Calls Tryz.prog 49 #[.string ⟨#[35, 120, 103]⟩, .int .i64 0, .bool false] w fun e w' => e = .returned (.tuple #[.string ⟨#[38, 35, 120]⟩, .int .i64 2]) ∧ Below w.heap.size w w' := by
  refine (referenceC lgL (Lib.hid lgOk) _ 0 false m (by decide) w hc hm).mono ?_
  rintro e w' ⟨V, N, rfl, hV, hN, _, hb⟩
  rw [show tlS ⟨#[35, 120, 103]⟩ 0 = [35, 120, 103] from rfl, ref_xg] at hV hN
  obtain rfl : V = ⟨#[38, 35, 120]⟩ := list_bytes _ _ hV
  subst hN
  exact ⟨rfl, hb⟩
theorem kR4 (m : Int) (w : World) (hc : CtlW w) (hm : w.cell? ⟨1, 0, none⟩ = some (.int .i64 m)) : Calls Tryz.prog 49 #[.string ⟨#[35, 120, 56, 48]⟩, .int .i64 0, .bool true] w fun e w' => e = .returned (.tuple #[.string ⟨#[226, 130, 172]⟩, .int .i64 4]) ∧ Below w.heap.size w w' := by
  refine (referenceC lgL (Lib.hid lgOk) _ 0 true m (by decide) w hc hm).mono ?_
  rintro e w' ⟨V, N, rfl, hV, hN, _, hb⟩
  rw [show tlS ⟨#[35, 120, 56, 48]⟩ 0 = [35, 120, 56, 48] from rfl, ref_x80] at hV hN
  obtain rfl : V = ⟨#[226, 130, 172]⟩ := list_bytes _ _ hV
  subst hN
  exact ⟨rfl, hb⟩
theorem kC1 (m : Int) (w : World) (hm : w.cell? ⟨1, 0, none⟩ = some (.int .i64 m)) : Calls Tryz.prog 50 #[.string ⟨#[97, 45, 45, 98, 45, 45, 62, 99]⟩, .int .i64 0] w fun e w' => e = .returned (.tuple #[.string ⟨#[97, 45, 45, 98]⟩, .int .i64 7]) ∧ Below w.heap.size w w' := by
  refine (commentC _ 0 m (by decide) w hm).mono ?_
  rintro e w' ⟨rfl, hb⟩
  rw [show tlS ⟨#[97, 45, 45, 98, 45, 45, 62, 99]⟩ 0 = [97, 45, 45, 98, 45, 45, 62, 99] from rfl, com_k1]
  exact ⟨rfl, hb⟩
theorem kC2 (m : Int) (w : World) (hm : w.cell? ⟨1, 0, none⟩ = some (.int .i64 m)) : Calls Tryz.prog 50 #[.string ⟨#[45, 62, 97]⟩, .int .i64 0] w fun e w' => e = .returned (.tuple #[.string ⟨#[]⟩, .int .i64 2]) ∧ Below w.heap.size w w' := by
  refine (commentC _ 0 m (by decide) w hm).mono ?_
  rintro e w' ⟨rfl, hb⟩
  rw [show tlS ⟨#[45, 62, 97]⟩ 0 = [45, 62, 97] from rfl, com_k2]
  exact ⟨rfl, hb⟩
theorem kD1 (m : Int) (w : World) (hm : w.cell? ⟨1, 0, none⟩ = some (.int .i64 m)) : Calls Tryz.prog 51 #[.string ⟨#[97, 93, 93, 98, 93, 93, 93, 62, 99]⟩, .int .i64 0] w fun e w' => e = .returned (.tuple #[.string ⟨#[97, 93, 93, 98, 93]⟩, .int .i64 8]) ∧ Below w.heap.size w w' := by
  refine (cdata _ 0 m (by decide) w hm).mono ?_
  rintro e w' ⟨rfl, hb⟩
  rw [show tlS ⟨#[97, 93, 93, 98, 93, 93, 93, 62, 99]⟩ 0 = [97, 93, 93, 98, 93, 93, 93, 62, 99] from rfl, show utL [93, 93, 62] [97, 93, 93, 98, 93, 93, 93, 62, 99] = ([97, 93, 93, 98, 93], 8) from by decide +kernel]
  exact ⟨rfl, hb⟩
theorem kT1 (m : Int) (w : World) (hc : CtlW w) (hm : w.cell? ⟨1, 0, none⟩ = some (.int .i64 m)) : Calls Tryz.prog 52 #[.string ⟨#[66, 114, 47, 32, 62, 120]⟩, .int .i64 0, .bool false] w fun e w' =>
    ∃ pa pn pc, e = .returned (.tuple #[tokA 2 ⟨#[98, 114]⟩ (.slice pa pn pc) false, .bool true, .int .i64 5]) ∧ Below w.heap.size w w' := by
  refine (tagC lgL (Lib.hid lgOk) _ 0 false m (by decide) w hc hm).mono ?_
  rintro e w' ⟨tk, cl, N, rfl, hb, _, hN, hor⟩
  rw [show tlS ⟨#[66, 114, 47, 32, 62, 120]⟩ 0 = [66, 114, 47, 32, 62, 120] from rfl, show tgRest [66, 114, 47, 32, 62, 120] = [47, 32, 62, 120] from by decide +kernel, tag_k, show tgName [66, 114, 47, 32, 62, 120] = [98, 114] from by decide +kernel] at hor
  rcases hor with ⟨_, _, _, h⟩ | ⟨rfl, acc, sc, v, h, hrow, _, rfl⟩
  · cases h
  · injection h with h
    injection h with h1 h
    injection h with h2 h3
    obtain rfl : N = 5 := drop_one h3.symm (n := 6) rfl hN
    subst h1 h2
    obtain ⟨pa, pn, pc, rfl⟩ : ∃ pa pn pc, v = .slice pa pn pc := by
      rcases hrow.2 with ⟨rfl, _⟩ | ⟨g, cap, cur, rfl, _⟩
      · exact ⟨_, _, _, rfl⟩
      · exact ⟨_, _, _, rfl⟩
    exact ⟨pa, pn, pc, rfl, hb⟩
theorem kL1 (w : World) : Calls Tryz.prog 53 #[.string ⟨#[60, 47, 104, 49, 62]⟩, .int .i64 0, .string ⟨#[104, 49]⟩] w fun e w' => e = .returned (.bool false) ∧ Below w.heap.size w w' := by
  have h := closesC ⟨#[60, 47, 104, 49, 62]⟩ 0 ⟨#[104, 49]⟩ (by decide) w
  rwa [show closesL (ByteArray.mk #[104, 49]).data.toList (tlS ⟨#[60, 47, 104, 49, 62]⟩ 0) = false from clo_k1] at h
theorem kL2 (w : World) : Calls Tryz.prog 53 #[.string ⟨#[60, 47, 84, 105, 116, 108, 101, 47]⟩, .int .i64 0, .string ⟨#[116, 105, 116, 108, 101]⟩] w fun e w' => e = .returned (.bool true) ∧ Below w.heap.size w w' := by
  have h := closesC ⟨#[60, 47, 84, 105, 116, 108, 101, 47]⟩ 0 ⟨#[116, 105, 116, 108, 101]⟩ (by decide) w
  rwa [show closesL (ByteArray.mk #[116, 105, 116, 108, 101]).data.toList (tlS ⟨#[60, 47, 84, 105, 116, 108, 101, 47]⟩ 0) = true from clo_k2] at h
theorem kO1 (m : Int) (w : World) (hm : w.cell? ⟨1, 0, none⟩ = some (.int .i64 m)) : Calls Tryz.prog 20 #[.string ⟨#[32, 97, 32, 83, 89, 83, 84, 69, 77, 39, 121, 39, 32, 122, 62]⟩, .int .i64 0] w fun e w' =>
    ∃ (hn : Bool) (pub : ByteArray), e = .returned (.tuple #[.agg #[.int .i64 1, .string ⟨#[97]⟩, .bool hn, .string pub, .bool false, .string ⟨#[121]⟩, .bool true, .bool false, .slice none 0 0, .bool false, .string ⟨#[]⟩, .int .i32 0], .int .i64 15]) ∧ Below w.heap.size w w' := by
  refine (doctypeC _ 0 m (by decide) w hm).mono ?_
  rintro e w' ⟨d, j, rfl, hb, _, hj, h⟩
  have hk := doc_k
  rw [show [32, 97, 32, 83, 89, 83, 84, 69, 77, 39, 121, 39, 32, 122, 62] = tlS ⟨#[32, 97, 32, 83, 89, 83, 84, 69, 77, 39, 121, 39, 32, 122, 62]⟩ 0 from rfl, h] at hk
  obtain ⟨st, q, name, hn, pub, hp, sys, hs, qk⟩ := d
  obtain ⟨h1, h2, h3, h4, h5, h6⟩ := hk
  obtain rfl : name = ⟨#[97]⟩ := list_bytes _ _ h1
  obtain rfl : sys = ⟨#[121]⟩ := list_bytes _ _ h3
  obtain rfl : hp = false := h2
  obtain rfl : hs = true := h4
  obtain rfl : qk = false := h5
  obtain rfl : j = 15 := drop_one h6 (n := 15) rfl hj
  exact ⟨hn, pub, rfl, hb⟩
theorem kS1 (m : Int) (w : World) (hm : w.cell? ⟨1, 0, none⟩ = some (.int .i64 m)) : Calls Tryz.prog 54 #[.string ⟨#[60, 33, 45, 45, 60, 115, 99, 114, 105, 112, 116, 62, 60, 47, 115, 99, 114, 105, 112, 116, 62, 60, 47, 115, 99, 114, 105, 112, 116, 62]⟩, .int .i64 0, .string ⟨#[115, 99, 114, 105, 112, 116]⟩] w fun e w' => e = .returned (.tuple #[.string ⟨#[60, 33, 45, 45, 60, 115, 99, 114, 105, 112, 116, 62, 60, 47, 115, 99, 114, 105, 112, 116, 62]⟩, .int .i64 21]) ∧ Below w.heap.size w w' := by
  refine (scriptC _ 0 _ m (by decide) w hm).mono ?_
  rintro e w' ⟨N, h, hN, rfl, hb⟩
  rw [show clip ⟨#[60, 33, 45, 45, 60, 115, 99, 114, 105, 112, 116, 62, 60, 47, 115, 99, 114, 105, 112, 116, 62, 60, 47, 115, 99, 114, 105, 112, 116, 62]⟩ 0 = 0 from rfl] at h hN ⊢
  have h' : _ = List.drop N _ := scr_k.symm.trans h
  obtain rfl : N = 21 := drop_one h'.symm (n := 30) rfl (by rw [Nat.zero_add] at hN; exact hN)
  exact ⟨rfl, hb⟩
theorem kA1 (m : Int) (w : World) (hc : CtlW w) (hm : w.cell? ⟨1, 0, none⟩ = some (.int .i64 m)) : Calls Tryz.prog 55 #[.string ⟨#[97, 38, 108, 116, 59, 60, 47, 98, 62, 60, 47, 97, 62]⟩, .int .i64 0, .string ⟨#[97]⟩] w fun e w' => e = .returned (.tuple #[.string ⟨#[97, 60, 60, 47, 98, 62]⟩, .int .i64 9]) ∧ Below w.heap.size w w' := by
  refine (rcdata lgL (Lib.hid lgOk) _ 0 _ m (by decide) w hc hm).mono ?_
  rintro e w' ⟨N, h, hN, rfl, hb⟩
  rw [show tlS ⟨#[97, 38, 108, 116, 59, 60, 47, 98, 62, 60, 47, 97, 62]⟩ 0 = [97, 38, 108, 116, 59, 60, 47, 98, 62, 60, 47, 97, 62] from rfl, show clip ⟨#[97, 38, 108, 116, 59, 60, 47, 98, 62, 60, 47, 97, 62]⟩ 0 = 0 from rfl] at *
  have h' : _ = List.drop N _ := stop_k.symm.trans h
  obtain rfl : N = 9 := drop_one h'.symm (n := 13) rfl (by rw [Nat.zero_add] at hN; exact hN)
  rw [show List.take 9 [97, 38, 108, 116, 59, 60, 47, 98, 62, 60, 47, 97, 62] = 97 :: 38 :: sLtb from rfl, res_ltb _ ref_ltb]
  exact ⟨rfl, hb⟩
end Go.Proofs.YtnfccckodgknjaaGreatDoor

namespace Go.Proofs.YtnfccckodgknjaaGreatDoor
open Go.RowKit Go.Shelf Go.Lib
set_option maxHeartbeats 2000000
set_option maxRecDepth 100000

theorem kof (s : ByteArray) (n : Int) (w : World) : Calls Tryz.prog 48 #[.string s, .int .i64 n] w fun e w' => e = .returned (.agg #[.string s, .int .i64 n]) ∧ Below w.heap.size w w' := by
  go_enter Tryz.func48, Tryz.ntmps48
  go_wp2_with fail
  refine bodyPost_ret (v := .agg #[.string s, .int .i64 n]) (by simp [results, Tryz.results48, go_sem]) rfl ⟨rfl, ?_⟩
  first | exact Below.refl _ _ | exact below_alloc (Below.refl _ _) _ | trace_state
theorem small02 (s : ByteArray) (w : World) : Calls Tryz.prog 11 #[.string s] w fun e w' => e = .returned (.bool (decide (s.size ≤ 4096))) ∧ w' = w := by
  go_enter Tryz.func11, Tryz.ntmps11
  go_wp2
  go_ret
  exact ⟨ret_bool (by rw [Bool.eq_iff_iff]; simp; omega), rfl⟩

theorem known02 (m : Int) (w : World) (hc : CtlW w) (hm : w.cell? ⟨1, 0, none⟩ = some (.int .i64 m)) :
    Calls Tryz.prog 12 #[] w fun e w' => e = .returned (.bool true) ∧ Below w.heap.size w w' := by
  have HM := Lib.hid hm
  have HC := Lib.hid hc
  clear hm hc
  have hb0 : Below w.heap.size w w := Below.refl _ _
  go_enter Tryz.func12, Tryz.ntmps12
  go_wp2_with fail
  refine (kR1 m w (HC.out.below hb0) (carry HM.out hb0)).mono ?_
  rintro e w1 ⟨rfl, hs1⟩
  have hb1 := below_next hb0 hs1
  clear hs1 hb0
  go_wp2_with fail
  refine (kof ⟨#[194, 172]⟩ 3 w1).mono ?_
  rintro e w2 ⟨rfl, hs2⟩
  have hb2 := below_next hb1 hs2
  clear hs2 hb1
  go_wp2_with fail
  refine (kof ⟨#[194, 172]⟩ 3 w2).mono ?_
  rintro e w3 ⟨rfl, hs3⟩
  have hb3 := below_next hb2 hs3
  clear hs3 hb2
  go_wp2_with fail
  refine (kR2 m w3 (HC.out.below hb3) (carry HM.out hb3)).mono ?_
  rintro e w4 ⟨rfl, hs4⟩
  have hb4 := below_next hb3 hs4
  clear hs4 hb3
  go_wp2_with fail
  refine (kof ⟨#[38, 110, 111, 116]⟩ 3 w4).mono ?_
  rintro e w5 ⟨rfl, hs5⟩
  have hb5 := below_next hb4 hs5
  clear hs5 hb4
  go_wp2_with fail
  refine (kof ⟨#[38, 110, 111, 116]⟩ 3 w5).mono ?_
  rintro e w6 ⟨rfl, hs6⟩
  have hb6 := below_next hb5 hs6
  clear hs6 hb5
  go_wp2_with fail
  refine (kR3 m w6 (HC.out.below hb6) (carry HM.out hb6)).mono ?_
  rintro e w7 ⟨rfl, hs7⟩
  have hb7 := below_next hb6 hs7
  clear hs7 hb6
  go_wp2_with fail
  refine (kof ⟨#[38, 35, 120]⟩ 2 w7).mono ?_
  rintro e w8 ⟨rfl, hs8⟩
  have hb8 := below_next hb7 hs8
  clear hs8 hb7
  go_wp2_with fail
  refine (kof ⟨#[38, 35, 120]⟩ 2 w8).mono ?_
  rintro e w9 ⟨rfl, hs9⟩
  have hb9 := below_next hb8 hs9
  clear hs9 hb8
  go_wp2_with fail
  refine (kR4 m w9 (HC.out.below hb9) (carry HM.out hb9)).mono ?_
  rintro e w10 ⟨rfl, hs10⟩
  have hb10 := below_next hb9 hs10
  clear hs10 hb9
  go_wp2_with fail
  refine (kof ⟨#[226, 130, 172]⟩ 4 w10).mono ?_
  rintro e w11 ⟨rfl, hs11⟩
  have hb11 := below_next hb10 hs11
  clear hs11 hb10
  go_wp2_with fail
  refine (kof ⟨#[226, 130, 172]⟩ 4 w11).mono ?_
  rintro e w12 ⟨rfl, hs12⟩
  have hb12 := below_next hb11 hs12
  clear hs12 hb11
  go_wp2_with fail
  refine (kC1 m w12 (carry HM.out hb12)).mono ?_
  rintro e w13 ⟨rfl, hs13⟩
  have hb13 := below_next hb12 hs13
  clear hs13 hb12
  go_wp2_with fail
  refine (kof ⟨#[97, 45, 45, 98]⟩ 7 w13).mono ?_
  rintro e w14 ⟨rfl, hs14⟩
  have hb14 := below_next hb13 hs14
  clear hs14 hb13
  go_wp2_with fail
  refine (kof ⟨#[97, 45, 45, 98]⟩ 7 w14).mono ?_
  rintro e w15 ⟨rfl, hs15⟩
  have hb15 := below_next hb14 hs15
  clear hs15 hb14
  go_wp2_with fail
  refine (kC2 m w15 (carry HM.out hb15)).mono ?_
  rintro e w16 ⟨rfl, hs16⟩
  have hb16 := below_next hb15 hs16
  clear hs16 hb15
  go_wp2_with fail
  refine (kof ⟨#[]⟩ 2 w16).mono ?_
  rintro e w17 ⟨rfl, hs17⟩
  have hb17 := below_next hb16 hs17
  clear hs17 hb16
  go_wp2_with fail
  refine (kof ⟨#[]⟩ 2 w17).mono ?_
  rintro e w18 ⟨rfl, hs18⟩
  have hb18 := below_next hb17 hs18
  clear hs18 hb17
  go_wp2_with fail
  refine (kD1 m w18 (carry HM.out hb18)).mono ?_
  rintro e w19 ⟨rfl, hs19⟩
  have hb19 := below_next hb18 hs19
  clear hs19 hb18
  go_wp2_with fail
  refine (kof ⟨#[97, 93, 93, 98, 93]⟩ 8 w19).mono ?_
  rintro e w20 ⟨rfl, hs20⟩
  have hb20 := below_next hb19 hs20
  clear hs20 hb19
  go_wp2_with fail
  refine (kof ⟨#[97, 93, 93, 98, 93]⟩ 8 w20).mono ?_
  rintro e w21 ⟨rfl, hs21⟩
  have hb21 := below_next hb20 hs21
  clear hs21 hb20
  go_wp2_with fail
  refine (kT1 m w21 (HC.out.below hb21) (carry HM.out hb21)).mono ?_
  rintro e w22 ⟨pa, pn, pc, rfl, hs22⟩
  unfold tokA
  have hb22 := below_next hb21 hs22
  clear hs22 hb21
  go_wp2_with fail
  obtain ⟨w22a, hwa⟩ : ∃ x, x = w22.alloc (.cells #[.int .i64 2, .string ⟨#[98, 114]⟩, .bool false, .string ⟨#[]⟩, .bool false, .string ⟨#[]⟩, .bool false, .bool false, .slice pa pn pc, .bool false, .string ⟨#[]⟩, .int .i32 0] 38) := ⟨_, rfl⟩
  rw [← hwa]
  replace hb22 : Below w.heap.size w w22a := by rw [hwa]; exact below_alloc hb22 _
  clear hwa
  refine (kL1 w22a).mono ?_
  rintro e w23 ⟨rfl, hs23⟩
  have hb23 := below_next hb22 hs23
  clear hs23 hb22
  go_wp2_with fail
  refine (kL2 w23).mono ?_
  rintro e w24 ⟨rfl, hs24⟩
  have hb24 := below_next hb23 hs24
  clear hs24 hb23
  go_wp2_with fail
  refine (kO1 m w24 (carry HM.out hb24)).mono ?_
  rintro e w25 ⟨qhn, qpub, rfl, hs25⟩
  have hb25 := below_next hb24 hs25
  clear hs25 hb24
  go_wp2_with fail
  obtain ⟨w25a, hwa⟩ : ∃ x, x = w25.alloc (.cells #[.int .i64 1, .string ⟨#[97]⟩, .bool qhn, .string qpub, .bool false, .string ⟨#[121]⟩, .bool true, .bool false, .slice none 0 0, .bool false, .string ⟨#[]⟩, .int .i32 0] 38) := ⟨_, rfl⟩
  rw [← hwa]
  replace hb25 : Below w.heap.size w w25a := by rw [hwa]; exact below_alloc hb25 _
  clear hwa
  refine (kS1 m w25a (carry HM.out hb25)).mono ?_
  rintro e w26 ⟨rfl, hs26⟩
  have hb26 := below_next hb25 hs26
  clear hs26 hb25
  go_wp2_with fail
  refine (kof ⟨#[60, 33, 45, 45, 60, 115, 99, 114, 105, 112, 116, 62, 60, 47, 115, 99, 114, 105, 112, 116, 62]⟩ 21 w26).mono ?_
  rintro e w27 ⟨rfl, hs27⟩
  have hb27 := below_next hb26 hs27
  clear hs27 hb26
  go_wp2_with fail
  refine (kof ⟨#[60, 33, 45, 45, 60, 115, 99, 114, 105, 112, 116, 62, 60, 47, 115, 99, 114, 105, 112, 116, 62]⟩ 21 w27).mono ?_
  rintro e w28 ⟨rfl, hs28⟩
  have hb28 := below_next hb27 hs28
  clear hs28 hb27
  go_wp2_with fail
  refine (kA1 m w28 (HC.out.below hb28) (carry HM.out hb28)).mono ?_
  rintro e w29 ⟨rfl, hs29⟩
  have hb29 := below_next hb28 hs29
  clear hs29 hb28
  go_wp2_with fail
  refine (kof ⟨#[97, 60, 60, 47, 98, 62]⟩ 9 w29).mono ?_
  rintro e w30 ⟨rfl, hs30⟩
  have hb30 := below_next hb29 hs30
  clear hs30 hb29
  go_wp2_with fail
  refine (kof ⟨#[97, 60, 60, 47, 98, 62]⟩ 9 w30).mono ?_
  rintro e w31 ⟨rfl, hs31⟩
  have hb31 := below_next hb30 hs31
  clear hs31 hb30
  go_wp2_with fail
  go_ret
  exact ⟨rfl, hb31⟩
end Go.Proofs.YtnfccckodgknjaaGreatDoor

namespace Go.Proofs.YtnfccckodgknjaaGreatDoor
open Go.RowKit Go.Shelf Go.Lib
set_option maxHeartbeats 4000000
set_option maxRecDepth 100000

end Go.Proofs.YtnfccckodgknjaaGreatDoor

namespace Go.Proofs.YtnfccckodgknjaaGreatDoor
open Go.RowKit Go.Shelf Go.Lib

end Go.Proofs.YtnfccckodgknjaaGreatDoor

namespace Go.Proofs.YtnfccckodgknjaaGreatDoor
open Go.RowKit Go.Shelf Go.Lib
set_option maxHeartbeats 4000000
set_option maxRecDepth 100000

theorem ret2_v {V V' : ByteArray} {i j : Int} (h : V = V') (h2 : i = j) : Ending.returned (.tuple #[.string V, .int .i64 i]) = .returned (.tuple #[.string V', .int .i64 j]) := by rw [h, h2]
/-- What a numeric reference comes to: the opening o0 of k0 bytes, the digits behind it. -/
def QNum (T : ByteArray) (attr : Bool) (k0 : Nat) (r : Int × Nat) : Prop :=
  refL lgL attr T.data.toList = if r.2 = 0 then (38 :: T.data.toList.take k0, k0) else (encT8 (cpZ r.1), k0 + r.2 + (if (T.data.toList.drop (k0 + r.2)).head? = some 59 then 1 else 0))
theorem qnum_of (T : ByteArray) (attr : Bool) (k0 : Nat) (hk0 : 0 < k0) (r : Int × Nat) (h : numericL (T.data.toList.drop 1) = digitsL (38 :: T.data.toList.take k0) (k0 - 1) r (T.data.toList.drop k0)) (h0 : 0 < T.size) (h35 : T[0]'h0 = 35) : QNum T attr k0 r := by
  have hc : T.data.toList = 35 :: T.data.toList.drop 1 := by
    have := drop_byte T 0 h0
    rw [List.drop_zero, h35] at this
    exact this
  unfold QNum
  rw [hc, ref_35, h, ← hc]
  unfold digitsL
  by_cases hr : r.2 = 0
  · rw [if_pos hr, if_pos hr]
    show (_, k0 - 1 + 1) = _
    rw [Nat.sub_add_cancel hk0]
  · rw [if_neg hr, if_neg hr]
    show (_, k0 - 1 + r.2 + _ + 1) = _
    rw [List.drop_drop, show k0 - 1 + r.2 + (if (T.data.toList.drop (k0 + r.2)).head? = some 59 then 1 else 0) + 1 = k0 + r.2 + (if (T.data.toList.drop (k0 + r.2)).head? = some 59 then 1 else 0) by omega]
theorem head_at (T : ByteArray) (j : Nat) (h : j < T.size) : (T.data.toList.drop j).head? = some (T[j]'h) := by rw [drop_byte T j h]; rfl

theorem qRefHexA (s : ByteArray) (k : Nat) (attr : Bool) (hk : k ≤ s.size) (hs : s.size ≤ 1000000) (w : World)
    (T : ByteArray) (hT : T = s.extract k s.size) (h0 : 0 < T.size) (h35 : T[0]'h0 = 35) (h1 : 1 < T.size) (x1 : (((T[1]'h1).toNat : Int) == 120) = true) (a : Int) (hCa : ∀ W, Calls Tryz.prog 68 #[.string s, .int .i64 a] W fun e w' => e = .returned (.int .i64 (k : Nat)) ∧ w' = W)
    (hq : QNum T attr 2 (digRun hexB 16 (T.data.toList.drop 2) 0 0)) :
    Calls Tryz.prog 169 #[.string s, .int .i64 a, .bool attr] w (QRefP T k attr w) := by
  have HC := Lib.hid hCa
  have hTe : s.extract k s.size = T := hT.symm
  have hTs : T.size = s.size - k := by rw [hT, ByteArray.size_extract]; omega
  have hkI : (k : Int) ≤ (s.size : Int) := by omega
  have hz2 : (s.size : Int) ≤ 1000000 := by omega
  have hzT : (T.size : Int) ≤ 1000000 := by omega
  have hne : T.toList.isEmpty = false := by
    rw [List.isEmpty_eq_false_iff]
    intro h
    have h2 := congrArg List.length h
    rw [ByteArray.toList_eq, size_list] at h2
    exact absurd h2 (by show ¬ T.size = 0; omega)
  have HA := Lib.hid (fun W => rAlnum ((T[0]'h0).toNat : Int) W)
  have hal : alnB ((T[0]'h0).toNat : Int) = false := by rw [h35]; decide
  rw [hal] at HA
  have d35 : (((T[0]'h0).toNat : Int) != 35) = false := by rw [h35]; rfl
  obtain ⟨D, hD⟩ : ∃ D, T.extract 2 T.size = D := ⟨_, rfl⟩
  have hDl : D.data.toList = T.data.toList.drop 2 := by rw [← hD, ext_drop]
  have hDs : D.size = T.size - 2 := by rw [← hD, ByteArray.size_extract]; omega
  obtain ⟨r, hr⟩ : ∃ r, r = digRun hexB 16 (T.data.toList.drop 2) 0 0 := ⟨_, rfl⟩
  have HDG := Lib.hid (fun W => rDigits16 D (by unfold maxLen; omega) W)
  rw [hDl, ← hr] at HDG
  rw [← hr] at hq
  have hm : r.2 + 2 ≤ T.size := by
    have h := (digRun_ge hexB 16 (T.data.toList.drop 2) 0 0).2
    rw [← hr, List.length_drop, size_list] at h
    omega
  obtain ⟨code, m⟩ := r
  simp only at hm hq HDG
  obtain ⟨M, hM⟩ : ∃ M : Int, M = m := ⟨_, rfl⟩
  rw [← hM] at HDG
  have M0 : 0 ≤ M := by omega
  have M1 : 2 + M ≤ (T.size : Int) := by omega
  have HQ := Lib.hid hq
  have HMM := Lib.hid hM
  have Hk0 := Lib.hid (take_ext T 2 (by omega))
  have HBD := Lib.hid (cpZ_bd code)
  clear hCa hT hal hDl hTs hDs h35 hr hq
  have hI1 : (1 : Int) < (T.size : Int) := by omega
  by_cases hz : m = 0
  · have dM : (M == 0) = true := by rw [beq_iff_eq]; omega
    have HZ := Lib.hid hz
    clear hz hM
    go_enter Tryz.func169, Tryz.ntmps169
    go_wp2_with fail
    refine (HC.out w).mono ?_
    rintro e w1 ⟨rfl, rfl⟩
    go_wp2_with fail
    refine (HA.out w1).mono ?_
    rintro e w2 ⟨rfl, rfl⟩
    go_wp2_with fail
    refine (HDG.out w2).mono ?_
    rintro e w3 ⟨rfl, hb3⟩
    go_wp2_with fail
    go_ret2
    refine ⟨(⟨#[38]⟩ : ByteArray) ++ T.extract 0 2, 2, ret2_v rfl (by omega), ?_, ?_, by omega, hb3⟩
    · rw [HQ.out, if_pos HZ.out, ByteArray.data_append, Array.toList_append, Hk0.out]
      all_goals simp only [List.cons_append, List.nil_append]
    · rw [HQ.out, if_pos HZ.out]
  · have dM : (M == 0) = false := by rw [beq_eq_false_iff_ne]; omega
    have HNZ := Lib.hid hz
    by_cases hlt : 2 + m < T.size
    · have dlt : decide (2 + M < (T.size : Int)) = true := decide_eq_true (by omega)
      have hix : (2 + M).toNat < T.size := by omega
      have HLT := Lib.hid hlt
      have hhd : (T.data.toList.drop (2 + m)).head? = some (T[(2 + M).toNat]'hix) := by
        rw [head_at T (2 + m) hlt]
        congr 2
        omega
      by_cases hse : T[(2 + M).toNat]'hix = 59
      · have HSE := Lib.hid (show (T.data.toList.drop (2 + m)).head? = some 59 by rw [hhd, hse])
        have d59 : (((T[(2 + M).toNat]'hix).toNat : Int) == 59) = true := by rw [hse]; rfl
        have gM : 0 ≤ 2 + M := by omega
        have gM2 : 2 + M < (T.size : Int) := by omega
        clear hz hM hlt hhd hse
        go_enter Tryz.func169, Tryz.ntmps169
        go_wp2_with fail
        refine (HC.out w).mono ?_
        rintro e w1 ⟨rfl, rfl⟩
        go_wp2_with fail
        refine (HA.out w1).mono ?_
        rintro e w2 ⟨rfl, rfl⟩
        go_wp2_with fail
        refine (HDG.out w2).mono ?_
        rintro e w3 ⟨rfl, hb3⟩
        go_wp2_with fail
        refine (rCodePoint code w3).mono ?_
        rintro e w4 ⟨rfl, hs4⟩
        have hb4 := below_next hb3 hs4
        clear hs4
        go_wp2_with fail
        refine (rBytes (cpZ code) (by have := HBD.out.1; omega) HBD.out.2.1 w4).mono ?_
        rintro e w5 ⟨v, rfl, hown, _, hs5⟩
        have hb5 := below_next hb4 hs5
        obtain ⟨W1, hW1⟩ : ∃ W1, W1 = bl (encU (cpZ code)) := ⟨_, rfl⟩
        have hbk : (convert 75 9 v).run Tryz.prog w5 = .ok (.string W1) w5 := by
          have h := hown
          rw [← encU_cells (cpZ code) (by have := HBD.out.1; omega) HBD.out.2.1, show (encZ (cpZ code)).length = (encU (cpZ code)).length by unfold encU; rw [List.length_map]] at h
          have h2 := bytes_back h
          rw [hW1]
          exact h2
        have HW1 := Lib.hid hW1
        clear hs5 hown hW1
        go_wp2_with fail
        go_ret2
        refine ⟨W1, 2 + m + 1, ret2_v rfl (by have := HMM.out; omega), ?_, ?_, ?_, hb5⟩
        · rw [HQ.out, if_neg HNZ.out, HW1.out, bl_list, encT8_encU (cpZ code) (by have := HBD.out; omega)]
        · rw [HQ.out, if_neg HNZ.out, if_pos HSE.out]
        · have := HMM.out; have := HLT.out; omega
      · have HSE := Lib.hid (show ¬ (T.data.toList.drop (2 + m)).head? = some 59 by
          rw [hhd]
          intro h
          exact hse (Option.some.inj h))
        have d59 : (((T[(2 + M).toNat]'hix).toNat : Int) == 59) = false := by
          rw [beq_eq_false_iff_ne]
          intro h
          exact hse (UInt8.toNat_inj.1 (by show (T[(2 + M).toNat]'hix).toNat = 59; omega))
        have gM : 0 ≤ 2 + M := by omega
        have gM2 : 2 + M < (T.size : Int) := by omega
        clear hz hM hlt hhd hse
        go_enter Tryz.func169, Tryz.ntmps169
        go_wp2_with fail
        refine (HC.out w).mono ?_
        rintro e w1 ⟨rfl, rfl⟩
        go_wp2_with fail
        refine (HA.out w1).mono ?_
        rintro e w2 ⟨rfl, rfl⟩
        go_wp2_with fail
        refine (HDG.out w2).mono ?_
        rintro e w3 ⟨rfl, hb3⟩
        go_wp2_with fail
        refine (rCodePoint code w3).mono ?_
        rintro e w4 ⟨rfl, hs4⟩
        have hb4 := below_next hb3 hs4
        clear hs4
        go_wp2_with fail
        refine (rBytes (cpZ code) (by have := HBD.out.1; omega) HBD.out.2.1 w4).mono ?_
        rintro e w5 ⟨v, rfl, hown, _, hs5⟩
        have hb5 := below_next hb4 hs5
        obtain ⟨W1, hW1⟩ : ∃ W1, W1 = bl (encU (cpZ code)) := ⟨_, rfl⟩
        have hbk : (convert 75 9 v).run Tryz.prog w5 = .ok (.string W1) w5 := by
          have h := hown
          rw [← encU_cells (cpZ code) (by have := HBD.out.1; omega) HBD.out.2.1, show (encZ (cpZ code)).length = (encU (cpZ code)).length by unfold encU; rw [List.length_map]] at h
          have h2 := bytes_back h
          rw [hW1]
          exact h2
        have HW1 := Lib.hid hW1
        clear hs5 hown hW1
        go_wp2_with fail
        go_ret2
        refine ⟨W1, 2 + m, ret2_v rfl (by have := HMM.out; omega), ?_, ?_, ?_, hb5⟩
        · rw [HQ.out, if_neg HNZ.out, HW1.out, bl_list, encT8_encU (cpZ code) (by have := HBD.out; omega)]
        · rw [HQ.out, if_neg HNZ.out, if_neg HSE.out]
          all_goals rfl
        · have := HMM.out; omega
    · have dlt : decide (2 + M < (T.size : Int)) = false := decide_eq_false (by omega)
      have HSE := Lib.hid (show ¬ (T.data.toList.drop (2 + m)).head? = some 59 by
        rw [drop_end T (2 + m) (by omega)]
        simp)
      clear hz hM hlt
      go_enter Tryz.func169, Tryz.ntmps169
      go_wp2_with fail
      refine (HC.out w).mono ?_
      rintro e w1 ⟨rfl, rfl⟩
      go_wp2_with fail
      refine (HA.out w1).mono ?_
      rintro e w2 ⟨rfl, rfl⟩
      go_wp2_with fail
      refine (HDG.out w2).mono ?_
      rintro e w3 ⟨rfl, hb3⟩
      go_wp2_with fail
      refine (rCodePoint code w3).mono ?_
      rintro e w4 ⟨rfl, hs4⟩
      have hb4 := below_next hb3 hs4
      clear hs4
      go_wp2_with fail
      refine (rBytes (cpZ code) (by have := HBD.out.1; omega) HBD.out.2.1 w4).mono ?_
      rintro e w5 ⟨v, rfl, hown, _, hs5⟩
      have hb5 := below_next hb4 hs5
      obtain ⟨W1, hW1⟩ : ∃ W1, W1 = bl (encU (cpZ code)) := ⟨_, rfl⟩
      have hbk : (convert 75 9 v).run Tryz.prog w5 = .ok (.string W1) w5 := by
        have h := hown
        rw [← encU_cells (cpZ code) (by have := HBD.out.1; omega) HBD.out.2.1, show (encZ (cpZ code)).length = (encU (cpZ code)).length by unfold encU; rw [List.length_map]] at h
        have h2 := bytes_back h
        rw [hW1]
        exact h2
      have HW1 := Lib.hid hW1
      clear hs5 hown hW1
      go_wp2_with fail
      go_ret2
      refine ⟨W1, 2 + m, ret2_v rfl (by have := HMM.out; omega), ?_, ?_, ?_, hb5⟩
      · rw [HQ.out, if_neg HNZ.out, HW1.out, bl_list, encT8_encU (cpZ code) (by have := HBD.out; omega)]
      · rw [HQ.out, if_neg HNZ.out, if_neg HSE.out]
        all_goals rfl
      · have := HMM.out; omega
theorem qRefHexB (s : ByteArray) (k : Nat) (attr : Bool) (hk : k ≤ s.size) (hs : s.size ≤ 1000000) (w : World)
    (T : ByteArray) (hT : T = s.extract k s.size) (h0 : 0 < T.size) (h35 : T[0]'h0 = 35) (h1 : 1 < T.size) (x1 : (((T[1]'h1).toNat : Int) == 120) = false) (x2 : (((T[1]'h1).toNat : Int) == 88) = true) (a : Int) (hCa : ∀ W, Calls Tryz.prog 68 #[.string s, .int .i64 a] W fun e w' => e = .returned (.int .i64 (k : Nat)) ∧ w' = W)
    (hq : QNum T attr 2 (digRun hexB 16 (T.data.toList.drop 2) 0 0)) :
    Calls Tryz.prog 169 #[.string s, .int .i64 a, .bool attr] w (QRefP T k attr w) := by
  have HC := Lib.hid hCa
  have hTe : s.extract k s.size = T := hT.symm
  have hTs : T.size = s.size - k := by rw [hT, ByteArray.size_extract]; omega
  have hkI : (k : Int) ≤ (s.size : Int) := by omega
  have hz2 : (s.size : Int) ≤ 1000000 := by omega
  have hzT : (T.size : Int) ≤ 1000000 := by omega
  have hne : T.toList.isEmpty = false := by
    rw [List.isEmpty_eq_false_iff]
    intro h
    have h2 := congrArg List.length h
    rw [ByteArray.toList_eq, size_list] at h2
    exact absurd h2 (by show ¬ T.size = 0; omega)
  have HA := Lib.hid (fun W => rAlnum ((T[0]'h0).toNat : Int) W)
  have hal : alnB ((T[0]'h0).toNat : Int) = false := by rw [h35]; decide
  rw [hal] at HA
  have d35 : (((T[0]'h0).toNat : Int) != 35) = false := by rw [h35]; rfl
  obtain ⟨D, hD⟩ : ∃ D, T.extract 2 T.size = D := ⟨_, rfl⟩
  have hDl : D.data.toList = T.data.toList.drop 2 := by rw [← hD, ext_drop]
  have hDs : D.size = T.size - 2 := by rw [← hD, ByteArray.size_extract]; omega
  obtain ⟨r, hr⟩ : ∃ r, r = digRun hexB 16 (T.data.toList.drop 2) 0 0 := ⟨_, rfl⟩
  have HDG := Lib.hid (fun W => rDigits16 D (by unfold maxLen; omega) W)
  rw [hDl, ← hr] at HDG
  rw [← hr] at hq
  have hm : r.2 + 2 ≤ T.size := by
    have h := (digRun_ge hexB 16 (T.data.toList.drop 2) 0 0).2
    rw [← hr, List.length_drop, size_list] at h
    omega
  obtain ⟨code, m⟩ := r
  simp only at hm hq HDG
  obtain ⟨M, hM⟩ : ∃ M : Int, M = m := ⟨_, rfl⟩
  rw [← hM] at HDG
  have M0 : 0 ≤ M := by omega
  have M1 : 2 + M ≤ (T.size : Int) := by omega
  have HQ := Lib.hid hq
  have HMM := Lib.hid hM
  have Hk0 := Lib.hid (take_ext T 2 (by omega))
  have HBD := Lib.hid (cpZ_bd code)
  clear hCa hT hal hDl hTs hDs h35 hr hq
  have hI1 : (1 : Int) < (T.size : Int) := by omega
  by_cases hz : m = 0
  · have dM : (M == 0) = true := by rw [beq_iff_eq]; omega
    have HZ := Lib.hid hz
    clear hz hM
    go_enter Tryz.func169, Tryz.ntmps169
    go_wp2_with fail
    refine (HC.out w).mono ?_
    rintro e w1 ⟨rfl, rfl⟩
    go_wp2_with fail
    refine (HA.out w1).mono ?_
    rintro e w2 ⟨rfl, rfl⟩
    go_wp2_with fail
    refine (HDG.out w2).mono ?_
    rintro e w3 ⟨rfl, hb3⟩
    go_wp2_with fail
    go_ret2
    refine ⟨(⟨#[38]⟩ : ByteArray) ++ T.extract 0 2, 2, ret2_v rfl (by omega), ?_, ?_, by omega, hb3⟩
    · rw [HQ.out, if_pos HZ.out, ByteArray.data_append, Array.toList_append, Hk0.out]
      all_goals simp only [List.cons_append, List.nil_append]
    · rw [HQ.out, if_pos HZ.out]
  · have dM : (M == 0) = false := by rw [beq_eq_false_iff_ne]; omega
    have HNZ := Lib.hid hz
    by_cases hlt : 2 + m < T.size
    · have dlt : decide (2 + M < (T.size : Int)) = true := decide_eq_true (by omega)
      have hix : (2 + M).toNat < T.size := by omega
      have HLT := Lib.hid hlt
      have hhd : (T.data.toList.drop (2 + m)).head? = some (T[(2 + M).toNat]'hix) := by
        rw [head_at T (2 + m) hlt]
        congr 2
        omega
      by_cases hse : T[(2 + M).toNat]'hix = 59
      · have HSE := Lib.hid (show (T.data.toList.drop (2 + m)).head? = some 59 by rw [hhd, hse])
        have d59 : (((T[(2 + M).toNat]'hix).toNat : Int) == 59) = true := by rw [hse]; rfl
        have gM : 0 ≤ 2 + M := by omega
        have gM2 : 2 + M < (T.size : Int) := by omega
        clear hz hM hlt hhd hse
        go_enter Tryz.func169, Tryz.ntmps169
        go_wp2_with fail
        refine (HC.out w).mono ?_
        rintro e w1 ⟨rfl, rfl⟩
        go_wp2_with fail
        refine (HA.out w1).mono ?_
        rintro e w2 ⟨rfl, rfl⟩
        go_wp2_with fail
        refine (HDG.out w2).mono ?_
        rintro e w3 ⟨rfl, hb3⟩
        go_wp2_with fail
        refine (rCodePoint code w3).mono ?_
        rintro e w4 ⟨rfl, hs4⟩
        have hb4 := below_next hb3 hs4
        clear hs4
        go_wp2_with fail
        refine (rBytes (cpZ code) (by have := HBD.out.1; omega) HBD.out.2.1 w4).mono ?_
        rintro e w5 ⟨v, rfl, hown, _, hs5⟩
        have hb5 := below_next hb4 hs5
        obtain ⟨W1, hW1⟩ : ∃ W1, W1 = bl (encU (cpZ code)) := ⟨_, rfl⟩
        have hbk : (convert 75 9 v).run Tryz.prog w5 = .ok (.string W1) w5 := by
          have h := hown
          rw [← encU_cells (cpZ code) (by have := HBD.out.1; omega) HBD.out.2.1, show (encZ (cpZ code)).length = (encU (cpZ code)).length by unfold encU; rw [List.length_map]] at h
          have h2 := bytes_back h
          rw [hW1]
          exact h2
        have HW1 := Lib.hid hW1
        clear hs5 hown hW1
        go_wp2_with fail
        go_ret2
        refine ⟨W1, 2 + m + 1, ret2_v rfl (by have := HMM.out; omega), ?_, ?_, ?_, hb5⟩
        · rw [HQ.out, if_neg HNZ.out, HW1.out, bl_list, encT8_encU (cpZ code) (by have := HBD.out; omega)]
        · rw [HQ.out, if_neg HNZ.out, if_pos HSE.out]
        · have := HMM.out; have := HLT.out; omega
      · have HSE := Lib.hid (show ¬ (T.data.toList.drop (2 + m)).head? = some 59 by
          rw [hhd]
          intro h
          exact hse (Option.some.inj h))
        have d59 : (((T[(2 + M).toNat]'hix).toNat : Int) == 59) = false := by
          rw [beq_eq_false_iff_ne]
          intro h
          exact hse (UInt8.toNat_inj.1 (by show (T[(2 + M).toNat]'hix).toNat = 59; omega))
        have gM : 0 ≤ 2 + M := by omega
        have gM2 : 2 + M < (T.size : Int) := by omega
        clear hz hM hlt hhd hse
        go_enter Tryz.func169, Tryz.ntmps169
        go_wp2_with fail
        refine (HC.out w).mono ?_
        rintro e w1 ⟨rfl, rfl⟩
        go_wp2_with fail
        refine (HA.out w1).mono ?_
        rintro e w2 ⟨rfl, rfl⟩
        go_wp2_with fail
        refine (HDG.out w2).mono ?_
        rintro e w3 ⟨rfl, hb3⟩
        go_wp2_with fail
        refine (rCodePoint code w3).mono ?_
        rintro e w4 ⟨rfl, hs4⟩
        have hb4 := below_next hb3 hs4
        clear hs4
        go_wp2_with fail
        refine (rBytes (cpZ code) (by have := HBD.out.1; omega) HBD.out.2.1 w4).mono ?_
        rintro e w5 ⟨v, rfl, hown, _, hs5⟩
        have hb5 := below_next hb4 hs5
        obtain ⟨W1, hW1⟩ : ∃ W1, W1 = bl (encU (cpZ code)) := ⟨_, rfl⟩
        have hbk : (convert 75 9 v).run Tryz.prog w5 = .ok (.string W1) w5 := by
          have h := hown
          rw [← encU_cells (cpZ code) (by have := HBD.out.1; omega) HBD.out.2.1, show (encZ (cpZ code)).length = (encU (cpZ code)).length by unfold encU; rw [List.length_map]] at h
          have h2 := bytes_back h
          rw [hW1]
          exact h2
        have HW1 := Lib.hid hW1
        clear hs5 hown hW1
        go_wp2_with fail
        go_ret2
        refine ⟨W1, 2 + m, ret2_v rfl (by have := HMM.out; omega), ?_, ?_, ?_, hb5⟩
        · rw [HQ.out, if_neg HNZ.out, HW1.out, bl_list, encT8_encU (cpZ code) (by have := HBD.out; omega)]
        · rw [HQ.out, if_neg HNZ.out, if_neg HSE.out]
          all_goals rfl
        · have := HMM.out; omega
    · have dlt : decide (2 + M < (T.size : Int)) = false := decide_eq_false (by omega)
      have HSE := Lib.hid (show ¬ (T.data.toList.drop (2 + m)).head? = some 59 by
        rw [drop_end T (2 + m) (by omega)]
        simp)
      clear hz hM hlt
      go_enter Tryz.func169, Tryz.ntmps169
      go_wp2_with fail
      refine (HC.out w).mono ?_
      rintro e w1 ⟨rfl, rfl⟩
      go_wp2_with fail
      refine (HA.out w1).mono ?_
      rintro e w2 ⟨rfl, rfl⟩
      go_wp2_with fail
      refine (HDG.out w2).mono ?_
      rintro e w3 ⟨rfl, hb3⟩
      go_wp2_with fail
      refine (rCodePoint code w3).mono ?_
      rintro e w4 ⟨rfl, hs4⟩
      have hb4 := below_next hb3 hs4
      clear hs4
      go_wp2_with fail
      refine (rBytes (cpZ code) (by have := HBD.out.1; omega) HBD.out.2.1 w4).mono ?_
      rintro e w5 ⟨v, rfl, hown, _, hs5⟩
      have hb5 := below_next hb4 hs5
      obtain ⟨W1, hW1⟩ : ∃ W1, W1 = bl (encU (cpZ code)) := ⟨_, rfl⟩
      have hbk : (convert 75 9 v).run Tryz.prog w5 = .ok (.string W1) w5 := by
        have h := hown
        rw [← encU_cells (cpZ code) (by have := HBD.out.1; omega) HBD.out.2.1, show (encZ (cpZ code)).length = (encU (cpZ code)).length by unfold encU; rw [List.length_map]] at h
        have h2 := bytes_back h
        rw [hW1]
        exact h2
      have HW1 := Lib.hid hW1
      clear hs5 hown hW1
      go_wp2_with fail
      go_ret2
      refine ⟨W1, 2 + m, ret2_v rfl (by have := HMM.out; omega), ?_, ?_, ?_, hb5⟩
      · rw [HQ.out, if_neg HNZ.out, HW1.out, bl_list, encT8_encU (cpZ code) (by have := HBD.out; omega)]
      · rw [HQ.out, if_neg HNZ.out, if_neg HSE.out]
        all_goals rfl
      · have := HMM.out; omega
theorem qRefTenA (s : ByteArray) (k : Nat) (attr : Bool) (hk : k ≤ s.size) (hs : s.size ≤ 1000000) (w : World)
    (T : ByteArray) (hT : T = s.extract k s.size) (h0 : 0 < T.size) (h35 : T[0]'h0 = 35) (h1 : ¬ 1 < T.size) (a : Int) (hCa : ∀ W, Calls Tryz.prog 68 #[.string s, .int .i64 a] W fun e w' => e = .returned (.int .i64 (k : Nat)) ∧ w' = W)
    (hq : QNum T attr 1 (digRun digB 10 (T.data.toList.drop 1) 0 0)) :
    Calls Tryz.prog 169 #[.string s, .int .i64 a, .bool attr] w (QRefP T k attr w) := by
  have HC := Lib.hid hCa
  have hTe : s.extract k s.size = T := hT.symm
  have hTs : T.size = s.size - k := by rw [hT, ByteArray.size_extract]; omega
  have hkI : (k : Int) ≤ (s.size : Int) := by omega
  have hz2 : (s.size : Int) ≤ 1000000 := by omega
  have hzT : (T.size : Int) ≤ 1000000 := by omega
  have hne : T.toList.isEmpty = false := by
    rw [List.isEmpty_eq_false_iff]
    intro h
    have h2 := congrArg List.length h
    rw [ByteArray.toList_eq, size_list] at h2
    exact absurd h2 (by show ¬ T.size = 0; omega)
  have HA := Lib.hid (fun W => rAlnum ((T[0]'h0).toNat : Int) W)
  have hal : alnB ((T[0]'h0).toNat : Int) = false := by rw [h35]; decide
  rw [hal] at HA
  have d35 : (((T[0]'h0).toNat : Int) != 35) = false := by rw [h35]; rfl
  obtain ⟨D, hD⟩ : ∃ D, T.extract 1 T.size = D := ⟨_, rfl⟩
  have hDl : D.data.toList = T.data.toList.drop 1 := by rw [← hD, ext_drop]
  have hDs : D.size = T.size - 1 := by rw [← hD, ByteArray.size_extract]; omega
  obtain ⟨r, hr⟩ : ∃ r, r = digRun digB 10 (T.data.toList.drop 1) 0 0 := ⟨_, rfl⟩
  have HDG := Lib.hid (fun W => rDigits10 D 10 (by decide) (by unfold maxLen; omega) W)
  rw [hDl, ← hr] at HDG
  rw [← hr] at hq
  have hm : r.2 + 1 ≤ T.size := by
    have h := (digRun_ge digB 10 (T.data.toList.drop 1) 0 0).2
    rw [← hr, List.length_drop, size_list] at h
    omega
  obtain ⟨code, m⟩ := r
  simp only at hm hq HDG
  obtain ⟨M, hM⟩ : ∃ M : Int, M = m := ⟨_, rfl⟩
  rw [← hM] at HDG
  have M0 : 0 ≤ M := by omega
  have M1 : 1 + M ≤ (T.size : Int) := by omega
  have HQ := Lib.hid hq
  have HMM := Lib.hid hM
  have Hk0 := Lib.hid (take_ext T 1 (by omega))
  have HBD := Lib.hid (cpZ_bd code)
  clear hCa hT hal hDl hTs hDs h35 hr hq
  have hI1 : (T.size : Int) ≤ 1 := by omega
  by_cases hz : m = 0
  · have dM : (M == 0) = true := by rw [beq_iff_eq]; omega
    have HZ := Lib.hid hz
    clear hz hM
    go_enter Tryz.func169, Tryz.ntmps169
    go_wp2_with fail
    refine (HC.out w).mono ?_
    rintro e w1 ⟨rfl, rfl⟩
    go_wp2_with fail
    refine (HA.out w1).mono ?_
    rintro e w2 ⟨rfl, rfl⟩
    go_wp2_with fail
    refine (HDG.out w2).mono ?_
    rintro e w3 ⟨rfl, hb3⟩
    go_wp2_with fail
    go_ret2
    refine ⟨(⟨#[38]⟩ : ByteArray) ++ T.extract 0 1, 1, ret2_v rfl (by omega), ?_, ?_, by omega, hb3⟩
    · rw [HQ.out, if_pos HZ.out, ByteArray.data_append, Array.toList_append, Hk0.out]
      all_goals simp only [List.cons_append, List.nil_append]
    · rw [HQ.out, if_pos HZ.out]
  · exact absurd hz (by omega)
theorem qRefTenB (s : ByteArray) (k : Nat) (attr : Bool) (hk : k ≤ s.size) (hs : s.size ≤ 1000000) (w : World)
    (T : ByteArray) (hT : T = s.extract k s.size) (h0 : 0 < T.size) (h35 : T[0]'h0 = 35) (h1 : 1 < T.size) (x1 : (((T[1]'h1).toNat : Int) == 120) = false) (x2 : (((T[1]'h1).toNat : Int) == 88) = false) (a : Int) (hCa : ∀ W, Calls Tryz.prog 68 #[.string s, .int .i64 a] W fun e w' => e = .returned (.int .i64 (k : Nat)) ∧ w' = W)
    (hq : QNum T attr 1 (digRun digB 10 (T.data.toList.drop 1) 0 0)) :
    Calls Tryz.prog 169 #[.string s, .int .i64 a, .bool attr] w (QRefP T k attr w) := by
  have HC := Lib.hid hCa
  have hTe : s.extract k s.size = T := hT.symm
  have hTs : T.size = s.size - k := by rw [hT, ByteArray.size_extract]; omega
  have hkI : (k : Int) ≤ (s.size : Int) := by omega
  have hz2 : (s.size : Int) ≤ 1000000 := by omega
  have hzT : (T.size : Int) ≤ 1000000 := by omega
  have hne : T.toList.isEmpty = false := by
    rw [List.isEmpty_eq_false_iff]
    intro h
    have h2 := congrArg List.length h
    rw [ByteArray.toList_eq, size_list] at h2
    exact absurd h2 (by show ¬ T.size = 0; omega)
  have HA := Lib.hid (fun W => rAlnum ((T[0]'h0).toNat : Int) W)
  have hal : alnB ((T[0]'h0).toNat : Int) = false := by rw [h35]; decide
  rw [hal] at HA
  have d35 : (((T[0]'h0).toNat : Int) != 35) = false := by rw [h35]; rfl
  obtain ⟨D, hD⟩ : ∃ D, T.extract 1 T.size = D := ⟨_, rfl⟩
  have hDl : D.data.toList = T.data.toList.drop 1 := by rw [← hD, ext_drop]
  have hDs : D.size = T.size - 1 := by rw [← hD, ByteArray.size_extract]; omega
  obtain ⟨r, hr⟩ : ∃ r, r = digRun digB 10 (T.data.toList.drop 1) 0 0 := ⟨_, rfl⟩
  have HDG := Lib.hid (fun W => rDigits10 D 10 (by decide) (by unfold maxLen; omega) W)
  rw [hDl, ← hr] at HDG
  rw [← hr] at hq
  have hm : r.2 + 1 ≤ T.size := by
    have h := (digRun_ge digB 10 (T.data.toList.drop 1) 0 0).2
    rw [← hr, List.length_drop, size_list] at h
    omega
  obtain ⟨code, m⟩ := r
  simp only at hm hq HDG
  obtain ⟨M, hM⟩ : ∃ M : Int, M = m := ⟨_, rfl⟩
  rw [← hM] at HDG
  have M0 : 0 ≤ M := by omega
  have M1 : 1 + M ≤ (T.size : Int) := by omega
  have HQ := Lib.hid hq
  have HMM := Lib.hid hM
  have Hk0 := Lib.hid (take_ext T 1 (by omega))
  have HBD := Lib.hid (cpZ_bd code)
  clear hCa hT hal hDl hTs hDs h35 hr hq
  have hI1 : (1 : Int) < (T.size : Int) := by omega
  by_cases hz : m = 0
  · have dM : (M == 0) = true := by rw [beq_iff_eq]; omega
    have HZ := Lib.hid hz
    clear hz hM
    go_enter Tryz.func169, Tryz.ntmps169
    go_wp2_with fail
    refine (HC.out w).mono ?_
    rintro e w1 ⟨rfl, rfl⟩
    go_wp2_with fail
    refine (HA.out w1).mono ?_
    rintro e w2 ⟨rfl, rfl⟩
    go_wp2_with fail
    refine (HDG.out w2).mono ?_
    rintro e w3 ⟨rfl, hb3⟩
    go_wp2_with fail
    go_ret2
    refine ⟨(⟨#[38]⟩ : ByteArray) ++ T.extract 0 1, 1, ret2_v rfl (by omega), ?_, ?_, by omega, hb3⟩
    · rw [HQ.out, if_pos HZ.out, ByteArray.data_append, Array.toList_append, Hk0.out]
      all_goals simp only [List.cons_append, List.nil_append]
    · rw [HQ.out, if_pos HZ.out]
  · have dM : (M == 0) = false := by rw [beq_eq_false_iff_ne]; omega
    have HNZ := Lib.hid hz
    by_cases hlt : 1 + m < T.size
    · have dlt : decide (1 + M < (T.size : Int)) = true := decide_eq_true (by omega)
      have hix : (1 + M).toNat < T.size := by omega
      have HLT := Lib.hid hlt
      have hhd : (T.data.toList.drop (1 + m)).head? = some (T[(1 + M).toNat]'hix) := by
        rw [head_at T (1 + m) hlt]
        congr 2
        omega
      by_cases hse : T[(1 + M).toNat]'hix = 59
      · have HSE := Lib.hid (show (T.data.toList.drop (1 + m)).head? = some 59 by rw [hhd, hse])
        have d59 : (((T[(1 + M).toNat]'hix).toNat : Int) == 59) = true := by rw [hse]; rfl
        have gM : 0 ≤ 1 + M := by omega
        have gM2 : 1 + M < (T.size : Int) := by omega
        clear hz hM hlt hhd hse
        go_enter Tryz.func169, Tryz.ntmps169
        go_wp2_with fail
        refine (HC.out w).mono ?_
        rintro e w1 ⟨rfl, rfl⟩
        go_wp2_with fail
        refine (HA.out w1).mono ?_
        rintro e w2 ⟨rfl, rfl⟩
        go_wp2_with fail
        refine (HDG.out w2).mono ?_
        rintro e w3 ⟨rfl, hb3⟩
        go_wp2_with fail
        refine (rCodePoint code w3).mono ?_
        rintro e w4 ⟨rfl, hs4⟩
        have hb4 := below_next hb3 hs4
        clear hs4
        go_wp2_with fail
        refine (rBytes (cpZ code) (by have := HBD.out.1; omega) HBD.out.2.1 w4).mono ?_
        rintro e w5 ⟨v, rfl, hown, _, hs5⟩
        have hb5 := below_next hb4 hs5
        obtain ⟨W1, hW1⟩ : ∃ W1, W1 = bl (encU (cpZ code)) := ⟨_, rfl⟩
        have hbk : (convert 75 9 v).run Tryz.prog w5 = .ok (.string W1) w5 := by
          have h := hown
          rw [← encU_cells (cpZ code) (by have := HBD.out.1; omega) HBD.out.2.1, show (encZ (cpZ code)).length = (encU (cpZ code)).length by unfold encU; rw [List.length_map]] at h
          have h2 := bytes_back h
          rw [hW1]
          exact h2
        have HW1 := Lib.hid hW1
        clear hs5 hown hW1
        go_wp2_with fail
        go_ret2
        refine ⟨W1, 1 + m + 1, ret2_v rfl (by have := HMM.out; omega), ?_, ?_, ?_, hb5⟩
        · rw [HQ.out, if_neg HNZ.out, HW1.out, bl_list, encT8_encU (cpZ code) (by have := HBD.out; omega)]
        · rw [HQ.out, if_neg HNZ.out, if_pos HSE.out]
        · have := HMM.out; have := HLT.out; omega
      · have HSE := Lib.hid (show ¬ (T.data.toList.drop (1 + m)).head? = some 59 by
          rw [hhd]
          intro h
          exact hse (Option.some.inj h))
        have d59 : (((T[(1 + M).toNat]'hix).toNat : Int) == 59) = false := by
          rw [beq_eq_false_iff_ne]
          intro h
          exact hse (UInt8.toNat_inj.1 (by show (T[(1 + M).toNat]'hix).toNat = 59; omega))
        have gM : 0 ≤ 1 + M := by omega
        have gM2 : 1 + M < (T.size : Int) := by omega
        clear hz hM hlt hhd hse
        go_enter Tryz.func169, Tryz.ntmps169
        go_wp2_with fail
        refine (HC.out w).mono ?_
        rintro e w1 ⟨rfl, rfl⟩
        go_wp2_with fail
        refine (HA.out w1).mono ?_
        rintro e w2 ⟨rfl, rfl⟩
        go_wp2_with fail
        refine (HDG.out w2).mono ?_
        rintro e w3 ⟨rfl, hb3⟩
        go_wp2_with fail
        refine (rCodePoint code w3).mono ?_
        rintro e w4 ⟨rfl, hs4⟩
        have hb4 := below_next hb3 hs4
        clear hs4
        go_wp2_with fail
        refine (rBytes (cpZ code) (by have := HBD.out.1; omega) HBD.out.2.1 w4).mono ?_
        rintro e w5 ⟨v, rfl, hown, _, hs5⟩
        have hb5 := below_next hb4 hs5
        obtain ⟨W1, hW1⟩ : ∃ W1, W1 = bl (encU (cpZ code)) := ⟨_, rfl⟩
        have hbk : (convert 75 9 v).run Tryz.prog w5 = .ok (.string W1) w5 := by
          have h := hown
          rw [← encU_cells (cpZ code) (by have := HBD.out.1; omega) HBD.out.2.1, show (encZ (cpZ code)).length = (encU (cpZ code)).length by unfold encU; rw [List.length_map]] at h
          have h2 := bytes_back h
          rw [hW1]
          exact h2
        have HW1 := Lib.hid hW1
        clear hs5 hown hW1
        go_wp2_with fail
        go_ret2
        refine ⟨W1, 1 + m, ret2_v rfl (by have := HMM.out; omega), ?_, ?_, ?_, hb5⟩
        · rw [HQ.out, if_neg HNZ.out, HW1.out, bl_list, encT8_encU (cpZ code) (by have := HBD.out; omega)]
        · rw [HQ.out, if_neg HNZ.out, if_neg HSE.out]
          all_goals rfl
        · have := HMM.out; omega
    · have dlt : decide (1 + M < (T.size : Int)) = false := decide_eq_false (by omega)
      have HSE := Lib.hid (show ¬ (T.data.toList.drop (1 + m)).head? = some 59 by
        rw [drop_end T (1 + m) (by omega)]
        simp)
      clear hz hM hlt
      go_enter Tryz.func169, Tryz.ntmps169
      go_wp2_with fail
      refine (HC.out w).mono ?_
      rintro e w1 ⟨rfl, rfl⟩
      go_wp2_with fail
      refine (HA.out w1).mono ?_
      rintro e w2 ⟨rfl, rfl⟩
      go_wp2_with fail
      refine (HDG.out w2).mono ?_
      rintro e w3 ⟨rfl, hb3⟩
      go_wp2_with fail
      refine (rCodePoint code w3).mono ?_
      rintro e w4 ⟨rfl, hs4⟩
      have hb4 := below_next hb3 hs4
      clear hs4
      go_wp2_with fail
      refine (rBytes (cpZ code) (by have := HBD.out.1; omega) HBD.out.2.1 w4).mono ?_
      rintro e w5 ⟨v, rfl, hown, _, hs5⟩
      have hb5 := below_next hb4 hs5
      obtain ⟨W1, hW1⟩ : ∃ W1, W1 = bl (encU (cpZ code)) := ⟨_, rfl⟩
      have hbk : (convert 75 9 v).run Tryz.prog w5 = .ok (.string W1) w5 := by
        have h := hown
        rw [← encU_cells (cpZ code) (by have := HBD.out.1; omega) HBD.out.2.1, show (encZ (cpZ code)).length = (encU (cpZ code)).length by unfold encU; rw [List.length_map]] at h
        have h2 := bytes_back h
        rw [hW1]
        exact h2
      have HW1 := Lib.hid hW1
      clear hs5 hown hW1
      go_wp2_with fail
      go_ret2
      refine ⟨W1, 1 + m, ret2_v rfl (by have := HMM.out; omega), ?_, ?_, ?_, hb5⟩
      · rw [HQ.out, if_neg HNZ.out, HW1.out, bl_list, encT8_encU (cpZ code) (by have := HBD.out; omega)]
      · rw [HQ.out, if_neg HNZ.out, if_neg HSE.out]
        all_goals rfl
      · have := HMM.out; omega
end Go.Proofs.YtnfccckodgknjaaGreatDoor

namespace Go.Proofs.YtnfccckodgknjaaGreatDoor
open Go.RowKit Go.Shelf Go.Lib
set_option maxHeartbeats 4000000
set_option maxRecDepth 100000

theorem byte_ne {x : UInt8} {n : Nat} (hn : n < 256) (h : ((x.toNat : Int) == (n : Int)) = false) : x ≠ UInt8.ofNat n := by
  rintro rfl
  rw [UInt8.toNat_ofNat_of_lt' hn] at h
  simp at h
theorem byte_eq {x : UInt8} {n : Nat} (hn : n < 256) (h : ((x.toNat : Int) == (n : Int)) = true) : x = UInt8.ofNat n := by
  refine UInt8.toNat_inj.1 ?_
  rw [UInt8.toNat_ofNat_of_lt' hn]
  have := beq_iff_eq.1 h
  omega
theorem hexMark_no {x : UInt8} (h1 : ((x.toNat : Int) == 120) = false) (h2 : ((x.toNat : Int) == 88) = false) : hexMark x = false := by
  unfold hexMark
  rw [Bool.or_eq_false_iff, beq_eq_false_iff_ne, beq_eq_false_iff_ne]
  exact ⟨byte_ne (n := 120) (by decide) h1, byte_ne (n := 88) (by decide) h2⟩
theorem hexMark_yes {x : UInt8} (h : ((x.toNat : Int) == 120) = true ∨ ((x.toNat : Int) == 88) = true) : hexMark x = true := by
  unfold hexMark
  rw [Bool.or_eq_true, beq_iff_eq, beq_iff_eq]
  rcases h with h | h
  · exact .inl (byte_eq (n := 120) (by decide) h)
  · exact .inr (byte_eq (n := 88) (by decide) h)
theorem refNone (s : ByteArray) (k : Nat) (attr : Bool) (hk : k ≤ s.size) (hs : s.size ≤ 1000000) (w : World)
    (T : ByteArray) (hT : T = s.extract k s.size) (h0 : T.size = 0 ∨ ∃ h0 : 0 < T.size, alnB ((T[0]'h0).toNat : Int) = false ∧ (((T[0]'h0).toNat : Int) != 35) = true) (a : Int) (hCa : ∀ W, Calls Tryz.prog 68 #[.string s, .int .i64 a] W fun e w' => e = .returned (.int .i64 (k : Nat)) ∧ w' = W) :
    Calls Tryz.prog 169 #[.string s, .int .i64 a, .bool attr] w (QRefP T k attr w) := by
  have HC := Lib.hid hCa
  have hTe : s.extract k s.size = T := hT.symm
  have hTs : T.size = s.size - k := by rw [hT, ByteArray.size_extract]; omega
  have hkI : (k : Int) ≤ (s.size : Int) := by omega
  have hz2 : (s.size : Int) ≤ 1000000 := by omega
  have hzT : (T.size : Int) ≤ 1000000 := by omega
  have hrf : refL lgL attr T.data.toList = ([38], 0) := by
    rcases h0 with h0 | ⟨h0, h1, h2⟩
    · have : T.data.toList = [] := by
        have := drop_end T 0 (by omega)
        rwa [List.drop_zero] at this
      rw [this]; rfl
    · have hc := drop_byte T 0 h0
      rw [List.drop_zero] at hc
      rw [hc]
      show (if alU (T[0]'h0) then _ else if T[0]'h0 = 35 then _ else _) = _
      rw [if_neg (by unfold alU; rw [h1]; simp), if_neg (by rintro h; rw [h] at h2; simp at h2)]
  have HR := Lib.hid hrf
  clear hCa hT hTs hrf
  rcases h0 with h0 | ⟨h0, h1, h2⟩
  · have hne : T.toList.isEmpty = true := by
      rw [List.isEmpty_iff, ByteArray.toList_eq]
      have := drop_end T 0 (by omega)
      rwa [List.drop_zero] at this
    have HZ := Lib.hid h0
    clear h0
    go_enter Tryz.func169, Tryz.ntmps169
    go_wp2_with fail
    refine (HC.out w).mono ?_
    rintro e w1 ⟨rfl, rfl⟩
    go_wp2_with fail
    go_ret2
    refine ⟨⟨#[38]⟩, 0, ret2_v rfl (by omega), ?_, ?_, Nat.zero_le _, Below.refl _ _⟩
    · rw [HR.out]
    · rw [HR.out]
  · have hne : T.toList.isEmpty = false := by
      rw [List.isEmpty_eq_false_iff]
      intro h
      have h2 := congrArg List.length h
      rw [ByteArray.toList_eq, size_list] at h2
      exact absurd h2 (by show ¬ T.size = 0; omega)
    have HA := Lib.hid (fun W => rAlnum ((T[0]'h0).toNat : Int) W)
    rw [h1] at HA
    clear h1
    go_enter Tryz.func169, Tryz.ntmps169
    go_wp2_with fail
    refine (HC.out w).mono ?_
    rintro e w1 ⟨rfl, rfl⟩
    go_wp2_with fail
    refine (HA.out w1).mono ?_
    rintro e w2 ⟨rfl, rfl⟩
    go_wp2_with fail
    go_ret2
    refine ⟨⟨#[38]⟩, 0, ret2_v rfl (by omega), ?_, ?_, Nat.zero_le _, Below.refl _ _⟩
    · rw [HR.out]
    · rw [HR.out]

theorem qReference (s : ByteArray) (a : Int) (attr : Bool) (hs : s.size ≤ 1000000) (w : World) :
    Calls Tryz.prog 169 #[.string s, .int .i64 a, .bool attr] w fun e w' => ∃ (V : ByteArray) (N : Nat), e = .returned (.tuple #[.string V, .int .i64 ((clip s a + N : Nat) : Int)]) ∧ V.data.toList = (refL lgL attr (tlS s a)).1 ∧ N = (refL lgL attr (tlS s a)).2 ∧ clip s a + N ≤ s.size ∧ Below w.heap.size w w' := by
  have hC := fun W => qClip s a W
  have hk := clip_le s a
  unfold tlS
  generalize clip s a = k at hC hk ⊢
  obtain ⟨T, hT⟩ : ∃ T, T = s.extract k s.size := ⟨_, rfl⟩
  have hTl : T.data.toList = s.data.toList.drop k := by rw [hT, ext_drop]
  have hTs : T.size = s.size - k := by rw [hT, ByteArray.size_extract]; omega
  rw [← hTl]
  suffices h : Calls Tryz.prog 169 #[.string s, .int .i64 a, .bool attr] w (QRefP T k attr w) by
    refine h.mono ?_
    rintro e w' ⟨V, N, h1, h2, h3, h4, h5⟩
    exact ⟨V, N, h1, h2, h3, by omega, h5⟩
  by_cases h0 : T.size = 0
  · exact refNone s k attr hk hs w T hT (.inl h0) a hC
  have hp : 0 < T.size := by omega
  cases hal : alnB ((T[0]'hp).toNat : Int) with
  | true => exact qRefWords s k attr hk hs w T hT hp hal a hC
  | false =>
    by_cases h35 : T[0]'hp = 35
    · have hc : T.data.toList.drop 1 = (if h : 1 < T.size then (T[1]'h) :: T.data.toList.drop 2 else []) := by
        by_cases h : 1 < T.size
        · rw [dif_pos h]; exact drop_byte T 1 h
        · rw [dif_neg h]; exact drop_end T 1 (by omega)
      have ht1 : T.data.toList.take 1 = [35] := by
        have := drop_byte T 0 hp
        rw [List.drop_zero] at this
        rw [this, h35]; rfl
      by_cases h1 : 1 < T.size
      · rw [dif_pos h1] at hc
        have ht2 : T.data.toList.take 2 = ([35, T[1]'h1] : List UInt8) := by
          have := drop_byte T 0 hp
          rw [List.drop_zero] at this
          rw [this, h35, hc]; rfl
        cases x1 : ((((T[1]'h1).toNat : Int)) == 120) with
        | true =>
          refine qRefHexA s k attr hk hs w T hT hp h35 h1 x1 a hC (qnum_of T attr 2 (by decide) _ ?_ hp h35)
          rw [hc, num_hex _ (hexMark_yes (.inl x1)), ht2]
        | false =>
          cases x2 : ((((T[1]'h1).toNat : Int)) == 88) with
          | true =>
            refine qRefHexB s k attr hk hs w T hT hp h35 h1 x1 x2 a hC (qnum_of T attr 2 (by decide) _ ?_ hp h35)
            rw [hc, num_hex _ (hexMark_yes (.inr x2)), ht2]
          | false =>
            refine qRefTenB s k attr hk hs w T hT hp h35 h1 x1 x2 a hC (qnum_of T attr 1 (by decide) _ ?_ hp h35)
            rw [ht1]
            rw [hc, num_ten _ (hexMark_no x1 x2)]
      · rw [dif_neg h1] at hc
        refine qRefTenA s k attr hk hs w T hT hp h35 h1 a hC (qnum_of T attr 1 (by decide) _ ?_ hp h35)
        rw [ht1, hc]
        rfl
    · refine refNone s k attr hk hs w T hT (.inr ⟨hp, hal, ?_⟩) a hC
      rw [bne_iff_ne]
      intro h
      exact h35 (UInt8.toNat_inj.1 (by show (T[0]'hp).toNat = 35; omega))
end Go.Proofs.YtnfccckodgknjaaGreatDoor

namespace Go.Proofs.YtnfccckodgknjaaGreatDoor
open Go.RowKit Go.Shelf Go.Lib
set_option maxHeartbeats 4000000
set_option maxRecDepth 100000

theorem qEnds (b : UInt8) (w : World) : Calls Tryz.prog 191 #[.int .u8 (b.toNat : Int)] w fun e w' => e = .returned (.bool (enU b)) ∧ w' = w := by
  have HS := Lib.hid (fun W => rSpace (b.toNat : Int) W)
  obtain ⟨y, hy⟩ : ∃ y, y = spB (b.toNat : Int) := ⟨_, rfl⟩
  rw [← hy] at HS
  have he : enU b = (y || ((b.toNat : Int) == 62) || ((b.toNat : Int) == 47)) := by
    unfold enU spU
    rw [← hy]
    congr 1
    · congr 1
      rw [Bool.eq_iff_iff, beq_iff_eq, beq_iff_eq]
      exact ⟨fun h => by rw [h]; rfl, fun h => UInt8.toNat_inj.1 (by show b.toNat = 62; omega)⟩
    · rw [Bool.eq_iff_iff, beq_iff_eq, beq_iff_eq]
      exact ⟨fun h => by rw [h]; rfl, fun h => UInt8.toNat_inj.1 (by show b.toNat = 47; omega)⟩
  rw [he]
  clear hy he
  generalize (b.toNat : Int) = x at HS ⊢
  cases y
  · go_enter Tryz.func191, Tryz.ntmps191
    go_wp2_with fail
    refine (HS.out w).mono ?_
    rintro e w1 ⟨rfl, rfl⟩
    go_wp2_with fail
    all_goals
      go_ret
      exact ⟨ret_bool (by simp_all [Bool.or_comm]), rfl⟩
  · go_enter Tryz.func191, Tryz.ntmps191
    go_wp2_with fail
    refine (HS.out w).mono ?_
    rintro e w1 ⟨rfl, rfl⟩
    go_wp2_with fail
    all_goals
      go_ret
      exact ⟨ret_bool (by simp), rfl⟩

end Go.Proofs.YtnfccckodgknjaaGreatDoor

namespace Go.Proofs.YtnfccckodgknjaaGreatDoor
open Go.RowKit Go.Shelf Go.Lib
set_option maxHeartbeats 4000000
set_option maxRecDepth 100000

end Go.Proofs.YtnfccckodgknjaaGreatDoor

namespace Go.Proofs.YtnfccckodgknjaaGreatDoor
open Go.RowKit Go.Shelf Go.Lib
set_option maxHeartbeats 4000000
set_option maxRecDepth 100000

theorem runN_step {q : UInt8 → Bool} {s : ByteArray} {j : Nat} (h : j < s.size) (hq : q (s[j]'h) = false) : runN q (s.data.toList.drop j) = 1 + runN q (s.data.toList.drop (j + 1)) := by
  rw [drop_byte s j h, runN_no _ hq, Nat.add_comm]
theorem runN_stop {q : UInt8 → Bool} {s : ByteArray} {j : Nat} (h : j < s.size) (hq : q (s[j]'h) = true) : runN q (s.data.toList.drop j) = 0 := by
  rw [drop_byte s j h, runN_yes _ hq]
theorem runN_at_end (q : UInt8 → Bool) (s : ByteArray) (j : Nat) (h : s.size ≤ j) : runN q (s.data.toList.drop j) = 0 := by rw [drop_end s j h, runN_nil]
theorem runN_in (q : UInt8 → Bool) (s : ByteArray) (j : Nat) : runN q (s.data.toList.drop j) ≤ s.size - j := by
  have h := runN_le q (s.data.toList.drop j)
  rwa [List.length_drop, size_list] at h

theorem qSpaces (s : ByteArray) (k : Nat) (hk : k ≤ s.size) (hs : s.size ≤ 1000000) (w : World) :
    Calls Tryz.prog 67 #[.string s, .int .i64 k] w fun e w' => e = .returned (.int .i64 ((k + runN (fun b => !spU b) (s.data.toList.drop k) : Nat) : Int)) ∧ w' = w := by
  have HS := Lib.hid (fun (b : UInt8) W => rSpace (b.toNat : Int) W)
  have hz2 : (s.size : Int) ≤ 1000000 := by omega
  obtain ⟨tot, htot⟩ : ∃ n, n = k + runN (fun b => !spU b) (s.data.toList.drop k) := ⟨_, rfl⟩
  rw [← htot]
  have HT := Lib.hid htot
  clear hs htot
  go_enter Tryz.func67, Tryz.ntmps67
  go_wp2_with fail
  go_loop [1] (fun i => ∃ j : Nat, k ≤ j ∧ j ≤ s.size ∧ i = .int .i64 j ∧ tot = j + runN (fun b => !spU b) (s.data.toList.drop j)) (fun i => s.size - (intOf i).toNat)
  case atStart => exact ⟨k, Nat.le_refl _, hk, rfl, HT.out⟩
  case round =>
    obtain ⟨j, hkj, hj, rfl, heq⟩ := hrel
    have HEQ := Lib.hid heq
    clear heq
    by_cases hlt : j < s.size
    · have hI : (j : Int) < (s.size : Int) := by omega
      have HSJ := Lib.hid (fun W => HS.out (s[j]'hlt) W)
      obtain ⟨y, hy⟩ : ∃ y, y = spU (s[j]'hlt) := ⟨_, rfl⟩
      have hy2 : spB ((s[j]'hlt).toNat : Int) = y := hy.symm
      rw [hy2] at HSJ
      have HY := Lib.hid hy
      clear hy hy2
      cases y
      · have hst := runN_stop (q := fun b => !spU b) hlt (by rw [← HY.out]; rfl)
        have HST := Lib.hid hst
        clear hst
        go_wp2_with fail
        refine (HSJ.out _).mono ?_
        rintro e w2 ⟨rfl, rfl⟩
        go_wp2_with fail
        go_ret
        exact ⟨ret_int (by have := HEQ.out; rw [HST.out] at this; omega), rfl⟩
      · have hst := runN_step (q := fun b => !spU b) hlt (by rw [← HY.out]; rfl)
        have HST := Lib.hid hst
        clear hst
        go_wp2_with fail
        refine (HSJ.out _).mono ?_
        rintro e w2 ⟨rfl, rfl⟩
        go_wp2_with fail
        go_round
        case rel => exact ⟨j + 1, by omega, by omega, by go_num, by have := HEQ.out; rw [HST.out] at this; omega⟩
        case measure => simp [intOf]; omega
    · have hI2 : ¬ (j : Int) < (s.size : Int) := by omega
      have HST := Lib.hid (runN_at_end (fun b => !spU b) s j (by omega))
      go_wp2_with fail
      go_ret
      exact ⟨ret_int (by have := HEQ.out; rw [HST.out] at this; omega), rfl⟩

theorem low_nul1 (b : UInt8) : lowL (nul1 b) = nul1 (lowB b) := by
  by_cases h : b = 0
  · subst h; decide
  · have h2 : lowB b ≠ 0 := by
      unfold lowB
      split
      · rename_i hc
        intro e
        have h1 := hc.1
        have h3 := hc.2
        simp only [UInt8.le_iff_toNat_le] at h1 h3
        have e2 := congrArg UInt8.toNat e
        have e3 : (b + 32).toNat = b.toNat + 32 := by
          rw [UInt8.toNat_add, show (32 : UInt8).toNat = 32 from rfl]
          have : (90 : UInt8).toNat = 90 := rfl
          omega
        rw [e3] at e2
        have : (0 : UInt8).toNat = 0 := rfl
        omega
      · exact h
    rw [nul1_b h, nul1_b h2]
    rfl
theorem low_nul : ∀ l : List UInt8, lowL (nulL l) = nulL (lowL l)
  | [] => rfl
  | b :: t => by
    rw [nulL_cons]
    show lowL (nul1 b ++ nulL t) = nulL (lowB b :: lowL t)
    rw [nulL_cons, ← low_nul1 b, ← low_nul t]
    unfold lowL
    rw [List.map_append]

theorem qName (s : ByteArray) (a : Int) (hs : s.size ≤ 100000) (w : World) :
    Calls Tryz.prog 141 #[.string s, .int .i64 a] w fun e w' => e = .returned (.tuple #[.string (bl (lowL (nulL ((tlS s a).take (runN enU (tlS s a)))))), .int .i64 ((clip s a + runN enU (tlS s a) : Nat) : Int)]) ∧ Below w.heap.size w w' := by
  have HC := Lib.hid (fun W => qClip s a W)
  have hk := clip_le s a
  unfold tlS
  generalize clip s a = k at HC hk ⊢
  have HE := Lib.hid (fun (b : UInt8) W => qEnds b W)
  have hz2 : (s.size : Int) ≤ 100000 := by omega
  have hrun := runN_in enU s k
  obtain ⟨n, hn⟩ : ∃ n, n = runN enU (s.data.toList.drop k) := ⟨_, rfl⟩
  rw [← hn] at hrun ⊢
  obtain ⟨X, hX⟩ : ∃ X, X = s.extract k (k + n) := ⟨_, rfl⟩
  have hXl : X.data.toList = (s.data.toList.drop k).take n := by rw [hX, ext_take s k n (by omega)]
  have hXs : X.size ≤ 100000 := by rw [hX, ByteArray.size_extract]; omega
  have HLO := Lib.hid (fun W => rLower X (by omega) W)
  obtain ⟨V, hV⟩ : ∃ V, V = bl (lowL (nulL ((s.data.toList.drop k).take n))) := ⟨_, rfl⟩
  have hnu := fun W => qNul (lowS X) (by rw [lowS_size]; omega) W
  rw [lowS_eq, hXl, show (bl (lowL ((s.data.toList.drop k).take n))).data.toList = lowL ((s.data.toList.drop k).take n) from rfl, ← low_nul, ← hV] at hnu
  rw [lowS_eq, hXl] at HLO
  have HNU := Lib.hid hnu
  rw [← hV]
  have HN := Lib.hid hn
  have HX := Lib.hid hX
  have HK := Lib.hid hk
  have HRN := Lib.hid hrun
  clear hs hn hX hXl hXs hV hnu hrun
  go_enter Tryz.func141, Tryz.ntmps141
  go_wp2_with fail
  refine (HC.out w).mono ?_
  rintro e w1 ⟨rfl, rfl⟩
  go_wp2_with fail
  go_loop [6] (fun i => ∃ j : Nat, k ≤ j ∧ j ≤ s.size ∧ i = .int .i64 j ∧ k + n = j + runN enU (s.data.toList.drop j)) (fun i => s.size - (intOf i).toNat)
  case atStart => exact ⟨k, Nat.le_refl _, hk, rfl, by rw [HN.out]⟩
  case round =>
    obtain ⟨j, hkj, hj, rfl, heq⟩ := hrel
    have HEQ := Lib.hid heq
    clear heq
    have fin : j = k + n → Hid (s.extract k j = X ∧ (k : Int) ≤ j ∧ (j : Int) ≤ s.size) := fun h => Lib.hid (by subst h; exact ⟨HX.out.symm, by omega, by omega⟩)
    have FIN := Lib.hid fin
    clear fin
    by_cases hlt : j < s.size
    · have hI : (j : Int) < (s.size : Int) := by omega
      have HSJ := Lib.hid (fun W => HE.out (s[j]'hlt) W)
      obtain ⟨y, hy⟩ : ∃ y, y = enU (s[j]'hlt) := ⟨_, rfl⟩
      rw [← hy] at HSJ
      have HY := Lib.hid hy
      clear hy
      cases y
      · have hst := runN_step (q := enU) hlt HY.out.symm
        have HST := Lib.hid hst
        clear hst
        go_wp2_with fail
        refine (HSJ.out _).mono ?_
        rintro e w2 ⟨rfl, rfl⟩
        go_wp2_with fail
        go_round
        case rel => exact ⟨j + 1, by omega, by omega, by go_num, by have := HEQ.out; rw [HST.out] at this; omega⟩
        case measure => simp [intOf]; omega
      · have hst := runN_stop (q := enU) hlt HY.out.symm
        have hjn : j = k + n := by have := HEQ.out; rw [hst] at this; omega
        obtain ⟨f1, f2, f3⟩ := (FIN.out hjn).out
        have HJN := Lib.hid hjn
        clear hst hjn
        go_wp2_with fail
        refine (HSJ.out _).mono ?_
        rintro e w2 ⟨rfl, rfl⟩
        go_wp2_with fail
        refine (HLO.out _).mono ?_
        rintro e w3 ⟨rfl, hb3⟩
        go_wp2_with fail
        refine (HNU.out _).mono ?_
        rintro e w4 ⟨rfl, rfl⟩
        go_wp2_with fail
        go_ret2
        exact ⟨ret2_v rfl (by have := HJN.out; omega), hb3⟩
    · have hI2 : ¬ (j : Int) < (s.size : Int) := by omega
      have hst := runN_at_end enU s j (by omega)
      have hjn : j = k + n := by have := HEQ.out; rw [hst] at this; omega
      obtain ⟨f1, f2, f3⟩ := (FIN.out hjn).out
      have HJN := Lib.hid hjn
      clear hst hjn
      go_wp2_with fail
      refine (HLO.out _).mono ?_
      rintro e w3 ⟨rfl, hb3⟩
      go_wp2_with fail
      refine (HNU.out _).mono ?_
      rintro e w4 ⟨rfl, rfl⟩
      go_wp2_with fail
      go_ret2
      exact ⟨ret2_v rfl (by have := HJN.out; omega), hb3⟩
end Go.Proofs.YtnfccckodgknjaaGreatDoor

namespace Go.Proofs.YtnfccckodgknjaaGreatDoor
open Go.Lib
set_option maxRecDepth 100000

/-- An identifier behind its quote q: it, what is left where it ends, and whether its quote stood there (and was consumed). -/
def idR (q : UInt8) (r : List UInt8) : List UInt8 × List UInt8 × Bool :=
  match r.drop (idN q r) with
  | [] => (nulL (r.take (idN q r)), [], false)
  | c :: x => if c = q then (nulL (r.take (idN q r)), x, true) else (nulL (r.take (idN q r)), c :: x, false)
/-- The system identifier and what follows it; u: no spaces ahead. -/
def sysR (T : DocT) (u : List UInt8) : DocT × List UInt8 :=
  match u with
  | [] => (T.q, [])
  | c :: r =>
    if quU c then
      (if (idR c r).2.2 then (match sk (idR c r).2.1 with | [] => (DocT.q { T with sys := (idR c r).1, hasSys := true }, []) | x => ({ T with sys := (idR c r).1, hasSys := true }, upTo62 x))
        else (DocT.q { T with sys := (idR c r).1, hasSys := true }, upTo62 (idR c r).2.1))
    else (T.q, upTo62 (c :: r))
def pubR (T : DocT) (u : List UInt8) : DocT × List UInt8 :=
  match u with
  | [] => (T.q, [])
  | c :: r =>
    if quU c then
      (if (idR c r).2.2 then (match sk (idR c r).2.1 with
          | [] => (DocT.q { T with pub := (idR c r).1, hasPub := true }, [])
          | x :: y => if x = 62 then ({ T with pub := (idR c r).1, hasPub := true }, y) else sysR { T with pub := (idR c r).1, hasPub := true } (x :: y))
        else (DocT.q { T with pub := (idR c r).1, hasPub := true }, upTo62 (idR c r).2.1))
    else (T.q, upTo62 (c :: r))
def wordR (T : DocT) (u : List UInt8) : DocT × List UInt8 :=
  if lowL (u.take 6) = sPublic then pubR T (sk (u.drop 6)) else if lowL (u.take 6) = sSystem then sysR T (sk (u.drop 6)) else (T.q, upTo62 u)
def afterR (T : DocT) (u : List UInt8) : DocT × List UInt8 :=
  match u with
  | [] => (T.q, [])
  | c :: r => if c = 62 then (T, r) else wordR T (c :: r)
def docR (t : List UInt8) : DocT × List UInt8 :=
  match sk t with
  | [] => (DocT.q {}, [])
  | c :: r => if c = 62 then (DocT.q {}, r) else afterR { name := nulL (lowL ((c :: r).take (runN ewU (c :: r)))), hasName := true } (sk ((c :: r).drop (runN ewU (c :: r))))

theorem upq_62 (r : List UInt8) : upTo62 (62 :: r) = r := by
  unfold upTo62
  rw [runN_yes _ (by decide)]
  rfl
/-- Where an identifier ends otherwise than by its quote, a ">" stands. -/
theorem id_end {q : UInt8} {r x : List UInt8} {c : UInt8} (h : r.drop (idN q r) = c :: x) (hc : ¬ c = q) : c = 62 := by
  unfold idN at h
  rcases runN_drop (fun b => b == 62 || b == q) r with h2 | ⟨d, y, h2, hd⟩
  · rw [h2] at h; cases h
  · rw [h2] at h
    injection h with h3 _
    subst h3
    simp only [Bool.or_eq_true, beq_iff_eq] at hd
    rcases hd with hd | hd
    · exact hd
    · exact absurd hd hc
theorem inSystem_R (q : UInt8) (T : DocT) (r : List UInt8) : kInSystem q T r = (if (idR q r).2.2 then (match sk (idR q r).2.1 with | [] => (DocT.q { T with sys := (idR q r).1 }, []) | x => ({ T with sys := (idR q r).1 }, upTo62 x)) else (DocT.q { T with sys := (idR q r).1 }, upTo62 (idR q r).2.1)) := by
  unfold kInSystem idR
  cases h : r.drop (idN q r) with
  | nil => rfl
  | cons c x =>
    simp only
    by_cases hc : c = q
    · rw [if_pos hc, if_pos hc]
      unfold kAfterSystem kBogus
      simp only
      cases hs : sk x with
      | nil => simp
      | cons d y => simp
    · rw [if_neg hc, if_neg hc]
      obtain rfl := id_end h hc
      simp only
      rw [upq_62]
      rfl
theorem beforeSystem_R (T : DocT) (t : List UInt8) : kBeforeSystem true T t = sysR T (sk t) := by
  unfold kBeforeSystem sysR
  cases h : sk t with
  | nil => rfl
  | cons c r =>
    simp only
    by_cases h62 : c = 62
    · subst h62
      rw [if_pos rfl, if_neg (by decide), upq_62]
      simp [DocT.q]
    · rw [if_neg h62]
      by_cases hq : quU c = true
      · rw [if_pos hq, if_pos hq, inSystem_R]
      · rw [if_neg hq, if_neg hq]
        rfl
theorem beforeSystem_F (T : DocT) (t : List UInt8) : kBeforeSystem false T t = (match sk t with | [] => (T.q, []) | x :: y => if x = 62 then (T, y) else sysR T (x :: y)) := by
  unfold kBeforeSystem sysR
  cases h : sk t with
  | nil => rfl
  | cons c r =>
    simp only
    by_cases h62 : c = 62
    · rw [if_pos h62, if_pos h62]
      simp
    · rw [if_neg h62, if_neg h62]
      by_cases hq : quU c = true
      · rw [if_pos hq, if_pos hq, inSystem_R]
      · rw [if_neg hq, if_neg hq]
        rfl
theorem inPublic_R (q : UInt8) (T : DocT) (r : List UInt8) : kInPublic q T r = (if (idR q r).2.2 then (match sk (idR q r).2.1 with
          | [] => (DocT.q { T with pub := (idR q r).1 }, [])
          | x :: y => if x = 62 then ({ T with pub := (idR q r).1 }, y) else sysR { T with pub := (idR q r).1 } (x :: y))
        else (DocT.q { T with pub := (idR q r).1 }, upTo62 (idR q r).2.1)) := by
  unfold kInPublic idR
  cases h : r.drop (idN q r) with
  | nil => rfl
  | cons c x =>
    simp only
    by_cases hc : c = q
    · rw [if_pos hc, if_pos hc, beforeSystem_F]
      simp only
      rw [if_pos trivial]
    · rw [if_neg hc, if_neg hc]
      obtain rfl := id_end h hc
      simp only
      rw [upq_62]
      rfl
theorem beforePublic_R (T : DocT) (t : List UInt8) : kBeforePublic T t = pubR T (sk t) := by
  unfold kBeforePublic pubR
  cases h : sk t with
  | nil => rfl
  | cons c r =>
    simp only
    by_cases h62 : c = 62
    · subst h62
      rw [if_pos rfl, if_neg (by decide), upq_62]
    · rw [if_neg h62]
      by_cases hq : quU c = true
      · rw [if_pos hq, if_pos hq, inPublic_R]
      · rw [if_neg hq, if_neg hq]
        rfl
theorem afterName_R (T : DocT) (t : List UInt8) : kAfterName T t = afterR T (sk t) := by
  unfold kAfterName afterR wordR
  cases h : sk t with
  | nil => rfl
  | cons c r =>
    simp only
    rw [beforePublic_R, beforeSystem_R]
    rfl
theorem docL_R (t : List UInt8) : docL t = docR t := by
  unfold docL kBeforeName docR
  cases h : sk t with
  | nil => rfl
  | cons c r =>
    simp only
    unfold kInName
    rw [afterName_R, low_nul]
end Go.Proofs.YtnfccckodgknjaaGreatDoor
