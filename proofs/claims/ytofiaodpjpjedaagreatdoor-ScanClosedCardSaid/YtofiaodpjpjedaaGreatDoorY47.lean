/-
  The scanner's examples: what the readers answer at them.
-/
import Derived.Test.YtofiaodpjpjedaaGreatDoorY30
import Derived.Test.YtofiaodpjpjedaaGreatDoorY36
import Derived.Test.YtofiaodpjpjedaaGreatDoorY37
import Derived.Test.YtofiaodpjpjedaaGreatDoorY38
import Derived.Test.YtofiaodpjpjedaaGreatDoorY46
import Derived.Test.YtofiaodpjpjedaaGreatDoorY41
import Derived.Test.YtofiaodpjpjedaaGreatDoorY34
namespace Go.Proofs.YtofiaodpjpjedaaGreatDoor
open Go.RowKit Go.Shelf Go.Lib
set_option maxHeartbeats 2000000
set_option maxRecDepth 100000

theorem drop_one {l : List UInt8} {N n : Nat} {r : List UInt8} (h : l.drop N = r) (hl : l.length = n) (hn : N ≤ n) : N = n - r.length := by
  have := congrArg List.length h
  rw [List.length_drop, hl] at this
  omega
theorem kR1 (m : Int) (w : World) (hc : CtlW w) (hm : w.cell? ⟨1, 0, none⟩ = some (.int .i64 m)) : Calls Tryz.prog 16 #[.string ⟨#[110, 111, 116, 105, 116, 59]⟩, .int .i64 0, .bool false] w fun e w' => e = .returned (.tuple #[.string ⟨#[194, 172]⟩, .int .i64 3]) ∧ Below w.heap.size w w' := by
  refine (referenceC lgL (Lib.hid lgOk) _ 0 false m (by decide) w hc hm).mono ?_
  rintro e w' ⟨V, N, rfl, hV, hN, _, hb⟩
  rw [show tlS ⟨#[110, 111, 116, 105, 116, 59]⟩ 0 = sNotit from rfl, ref_notF] at hV hN
  obtain rfl : V = ⟨#[194, 172]⟩ := list_bytes _ _ hV
  subst hN
  exact ⟨rfl, hb⟩
theorem kR2 (m : Int) (w : World) (hc : CtlW w) (hm : w.cell? ⟨1, 0, none⟩ = some (.int .i64 m)) : Calls Tryz.prog 16 #[.string ⟨#[110, 111, 116, 105, 116, 59]⟩, .int .i64 0, .bool true] w fun e w' => e = .returned (.tuple #[.string ⟨#[38, 110, 111, 116]⟩, .int .i64 3]) ∧ Below w.heap.size w w' := by
  refine (referenceC lgL (Lib.hid lgOk) _ 0 true m (by decide) w hc hm).mono ?_
  rintro e w' ⟨V, N, rfl, hV, hN, _, hb⟩
  rw [show tlS ⟨#[110, 111, 116, 105, 116, 59]⟩ 0 = sNotit from rfl, ref_notT] at hV hN
  obtain rfl : V = ⟨#[38, 110, 111, 116]⟩ := list_bytes _ _ hV
  subst hN
  exact ⟨rfl, hb⟩
theorem kR3 (m : Int) (w : World) (hc : CtlW w) (hm : w.cell? ⟨1, 0, none⟩ = some (.int .i64 m)) : Calls Tryz.prog 16 #[.string ⟨#[35, 120, 103]⟩, .int .i64 0, .bool false] w fun e w' => e = .returned (.tuple #[.string ⟨#[38, 35, 120]⟩, .int .i64 2]) ∧ Below w.heap.size w w' := by
  refine (referenceC lgL (Lib.hid lgOk) _ 0 false m (by decide) w hc hm).mono ?_
  rintro e w' ⟨V, N, rfl, hV, hN, _, hb⟩
  rw [show tlS ⟨#[35, 120, 103]⟩ 0 = [35, 120, 103] from rfl, ref_xg] at hV hN
  obtain rfl : V = ⟨#[38, 35, 120]⟩ := list_bytes _ _ hV
  subst hN
  exact ⟨rfl, hb⟩
theorem kR4 (m : Int) (w : World) (hc : CtlW w) (hm : w.cell? ⟨1, 0, none⟩ = some (.int .i64 m)) : Calls Tryz.prog 16 #[.string ⟨#[35, 120, 56, 48]⟩, .int .i64 0, .bool true] w fun e w' => e = .returned (.tuple #[.string ⟨#[226, 130, 172]⟩, .int .i64 4]) ∧ Below w.heap.size w w' := by
  refine (referenceC lgL (Lib.hid lgOk) _ 0 true m (by decide) w hc hm).mono ?_
  rintro e w' ⟨V, N, rfl, hV, hN, _, hb⟩
  rw [show tlS ⟨#[35, 120, 56, 48]⟩ 0 = [35, 120, 56, 48] from rfl, ref_x80] at hV hN
  obtain rfl : V = ⟨#[226, 130, 172]⟩ := list_bytes _ _ hV
  subst hN
  exact ⟨rfl, hb⟩
theorem kC1 (m : Int) (w : World) (hm : w.cell? ⟨1, 0, none⟩ = some (.int .i64 m)) : Calls Tryz.prog 18 #[.string ⟨#[97, 45, 45, 98, 45, 45, 62, 99]⟩, .int .i64 0] w fun e w' => e = .returned (.tuple #[.string ⟨#[97, 45, 45, 98]⟩, .int .i64 7]) ∧ Below w.heap.size w w' := by
  refine (commentC _ 0 m (by decide) w hm).mono ?_
  rintro e w' ⟨rfl, hb⟩
  rw [show tlS ⟨#[97, 45, 45, 98, 45, 45, 62, 99]⟩ 0 = [97, 45, 45, 98, 45, 45, 62, 99] from rfl, com_k1]
  exact ⟨rfl, hb⟩
theorem kC2 (m : Int) (w : World) (hm : w.cell? ⟨1, 0, none⟩ = some (.int .i64 m)) : Calls Tryz.prog 18 #[.string ⟨#[45, 62, 97]⟩, .int .i64 0] w fun e w' => e = .returned (.tuple #[.string ⟨#[]⟩, .int .i64 2]) ∧ Below w.heap.size w w' := by
  refine (commentC _ 0 m (by decide) w hm).mono ?_
  rintro e w' ⟨rfl, hb⟩
  rw [show tlS ⟨#[45, 62, 97]⟩ 0 = [45, 62, 97] from rfl, com_k2]
  exact ⟨rfl, hb⟩
theorem kD1 (m : Int) (w : World) (hm : w.cell? ⟨1, 0, none⟩ = some (.int .i64 m)) : Calls Tryz.prog 22 #[.string ⟨#[97, 93, 93, 98, 93, 93, 93, 62, 99]⟩, .int .i64 0] w fun e w' => e = .returned (.tuple #[.string ⟨#[97, 93, 93, 98, 93]⟩, .int .i64 8]) ∧ Below w.heap.size w w' := by
  refine (cdata _ 0 m (by decide) w hm).mono ?_
  rintro e w' ⟨rfl, hb⟩
  rw [show tlS ⟨#[97, 93, 93, 98, 93, 93, 93, 62, 99]⟩ 0 = [97, 93, 93, 98, 93, 93, 93, 62, 99] from rfl, show utL [93, 93, 62] [97, 93, 93, 98, 93, 93, 93, 62, 99] = ([97, 93, 93, 98, 93], 8) from by decide +kernel]
  exact ⟨rfl, hb⟩
theorem kT1 (m : Int) (w : World) (hc : CtlW w) (hm : w.cell? ⟨1, 0, none⟩ = some (.int .i64 m)) : Calls Tryz.prog 40 #[.string ⟨#[66, 114, 47, 32, 62, 120]⟩, .int .i64 0, .bool false] w fun e w' =>
    ∃ pa pn pc, e = .returned (.tuple #[tokA 2 ⟨#[98, 114]⟩ (.slice pa pn pc) false, .bool true, .int .i64 5]) ∧ Below w.heap.size w w' := by
  refine (tagC lgL (Lib.hid lgOk) _ 0 false m (by decide) w hc hm).mono ?_
  rintro e w' ⟨tk, cl, N, rfl, hb, _, hN, hor⟩
  rw [show tlS ⟨#[66, 114, 47, 32, 62, 120]⟩ 0 = [66, 114, 47, 32, 62, 120] from rfl, show tgRest [66, 114, 47, 32, 62, 120] = [47, 32, 62, 120] from by decide +kernel, tag_k, show tgName [66, 114, 47, 32, 62, 120] = [98, 114] from by decide +kernel] at hor
  rcases hor with ⟨_, _, _, h⟩ | ⟨rfl, acc, sc, v, h, hrow, _, rfl⟩
  · cases h
  · injection h with h
    injection h with h1 h
    injection h with h2 h3
    obtain rfl : N = 5 := drop_one h3.symm (n := 6) rfl hN
    subst h1 h2
    obtain ⟨pa, pn, pc, rfl⟩ : ∃ pa pn pc, v = .slice pa pn pc := by
      rcases hrow.2 with ⟨rfl, _⟩ | ⟨g, cap, cur, rfl, _⟩
      · exact ⟨_, _, _, rfl⟩
      · exact ⟨_, _, _, rfl⟩
    exact ⟨pa, pn, pc, rfl, hb⟩
theorem kL1 (w : World) : Calls Tryz.prog 28 #[.string ⟨#[60, 47, 104, 49, 62]⟩, .int .i64 0, .string ⟨#[104, 49]⟩] w fun e w' => e = .returned (.bool false) ∧ Below w.heap.size w w' := by
  have h := closesC ⟨#[60, 47, 104, 49, 62]⟩ 0 ⟨#[104, 49]⟩ (by decide) w
  rwa [show closesL (ByteArray.mk #[104, 49]).data.toList (tlS ⟨#[60, 47, 104, 49, 62]⟩ 0) = false from clo_k1] at h
theorem kL2 (w : World) : Calls Tryz.prog 28 #[.string ⟨#[60, 47, 84, 105, 116, 108, 101, 47]⟩, .int .i64 0, .string ⟨#[116, 105, 116, 108, 101]⟩] w fun e w' => e = .returned (.bool true) ∧ Below w.heap.size w w' := by
  have h := closesC ⟨#[60, 47, 84, 105, 116, 108, 101, 47]⟩ 0 ⟨#[116, 105, 116, 108, 101]⟩ (by decide) w
  rwa [show closesL (ByteArray.mk #[116, 105, 116, 108, 101]).data.toList (tlS ⟨#[60, 47, 84, 105, 116, 108, 101, 47]⟩ 0) = true from clo_k2] at h
theorem kO1 (m : Int) (w : World) (hm : w.cell? ⟨1, 0, none⟩ = some (.int .i64 m)) : Calls Tryz.prog 38 #[.string ⟨#[32, 97, 32, 83, 89, 83, 84, 69, 77, 39, 121, 39, 32, 122, 62]⟩, .int .i64 0] w fun e w' =>
    ∃ (hn : Bool) (pub : ByteArray), e = .returned (.tuple #[.agg #[.int .i64 1, .string ⟨#[97]⟩, .bool hn, .string pub, .bool false, .string ⟨#[121]⟩, .bool true, .bool false, .slice none 0 0, .bool false, .string ⟨#[]⟩, .int .i32 0], .int .i64 15]) ∧ Below w.heap.size w w' := by
  refine (doctypeC _ 0 m (by decide) w hm).mono ?_
  rintro e w' ⟨d, j, rfl, hb, _, hj, h⟩
  have hk := doc_k
  rw [show [32, 97, 32, 83, 89, 83, 84, 69, 77, 39, 121, 39, 32, 122, 62] = tlS ⟨#[32, 97, 32, 83, 89, 83, 84, 69, 77, 39, 121, 39, 32, 122, 62]⟩ 0 from rfl, h] at hk
  obtain ⟨st, q, name, hn, pub, hp, sys, hs, qk⟩ := d
  obtain ⟨h1, h2, h3, h4, h5, h6⟩ := hk
  obtain rfl : name = ⟨#[97]⟩ := list_bytes _ _ h1
  obtain rfl : sys = ⟨#[121]⟩ := list_bytes _ _ h3
  obtain rfl : hp = false := h2
  obtain rfl : hs = true := h4
  obtain rfl : qk = false := h5
  obtain rfl : j = 15 := drop_one h6 (n := 15) rfl hj
  exact ⟨hn, pub, rfl, hb⟩
theorem kS1 (m : Int) (w : World) (hm : w.cell? ⟨1, 0, none⟩ = some (.int .i64 m)) : Calls Tryz.prog 36 #[.string ⟨#[60, 33, 45, 45, 60, 115, 99, 114, 105, 112, 116, 62, 60, 47, 115, 99, 114, 105, 112, 116, 62, 60, 47, 115, 99, 114, 105, 112, 116, 62]⟩, .int .i64 0, .string ⟨#[115, 99, 114, 105, 112, 116]⟩] w fun e w' => e = .returned (.tuple #[.string ⟨#[60, 33, 45, 45, 60, 115, 99, 114, 105, 112, 116, 62, 60, 47, 115, 99, 114, 105, 112, 116, 62]⟩, .int .i64 21]) ∧ Below w.heap.size w w' := by
  refine (scriptC _ 0 _ m (by decide) w hm).mono ?_
  rintro e w' ⟨N, h, hN, rfl, hb⟩
  rw [show clip ⟨#[60, 33, 45, 45, 60, 115, 99, 114, 105, 112, 116, 62, 60, 47, 115, 99, 114, 105, 112, 116, 62, 60, 47, 115, 99, 114, 105, 112, 116, 62]⟩ 0 = 0 from rfl] at h hN ⊢
  have h' : _ = List.drop N _ := scr_k.symm.trans h
  obtain rfl : N = 21 := drop_one h'.symm (n := 30) rfl (by rw [Nat.zero_add] at hN; exact hN)
  exact ⟨rfl, hb⟩
theorem kA1 (m : Int) (w : World) (hc : CtlW w) (hm : w.cell? ⟨1, 0, none⟩ = some (.int .i64 m)) : Calls Tryz.prog 32 #[.string ⟨#[97, 38, 108, 116, 59, 60, 47, 98, 62, 60, 47, 97, 62]⟩, .int .i64 0, .string ⟨#[97]⟩] w fun e w' => e = .returned (.tuple #[.string ⟨#[97, 60, 60, 47, 98, 62]⟩, .int .i64 9]) ∧ Below w.heap.size w w' := by
  refine (rcdata lgL (Lib.hid lgOk) _ 0 _ m (by decide) w hc hm).mono ?_
  rintro e w' ⟨N, h, hN, rfl, hb⟩
  rw [show tlS ⟨#[97, 38, 108, 116, 59, 60, 47, 98, 62, 60, 47, 97, 62]⟩ 0 = [97, 38, 108, 116, 59, 60, 47, 98, 62, 60, 47, 97, 62] from rfl, show clip ⟨#[97, 38, 108, 116, 59, 60, 47, 98, 62, 60, 47, 97, 62]⟩ 0 = 0 from rfl] at *
  have h' : _ = List.drop N _ := stop_k.symm.trans h
  obtain rfl : N = 9 := drop_one h'.symm (n := 13) rfl (by rw [Nat.zero_add] at hN; exact hN)
  rw [show List.take 9 [97, 38, 108, 116, 59, 60, 47, 98, 62, 60, 47, 97, 62] = 97 :: 38 :: sLtb from rfl, res_ltb _ ref_ltb]
  exact ⟨rfl, hb⟩
end Go.Proofs.YtofiaodpjpjedaaGreatDoor
