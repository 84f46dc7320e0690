/-
  Document type declarations: a step.
-/
import Derived.Test.YtnfccckodgknjaaGreatDoorY41
namespace Go.Proofs.YtnfccckodgknjaaGreatDoor
open Go.RowKit Go.Shelf Go.Lib
set_option maxHeartbeats 4000000
set_option maxRecDepth 100000

theorem dStep4 (b : Nat) (s : ByteArray) (j : Nat) (q name : ByteArray) (hn : Bool) (pub : ByteArray) (hp : Bool) (sys : ByteArray) (hsy qk : Bool) (hi : DInv ⟨4, q, name, hn, pub, hp, sys, hsy, qk⟩) (hj : j < s.size) (h62 : [62].isPrefixOf (s.data.toList.drop j) = false) (hs : s.size ≤ 1000000) (m : Int) (w : World) (hm : w.cell? ⟨1, 0, none⟩ = some (.int .i64 m)) (h : DAt w b s j ⟨4, q, name, hn, pub, hp, sys, hsy, qk⟩) :
    Calls Tryz.prog 66 #[.pointer (some ⟨b, 0, none⟩)] w (StepP b s j ⟨4, q, name, hn, pub, hp, sys, hsy, qk⟩ w) := by
  have HS := Lib.hid hs
  have HJ := Lib.hid hj
  have HM := Lib.hid hm
  have HI := Lib.hid hi
  have H62 := Lib.hid h62
  have HAT0 := Lib.hid h
  have hu : s.data.toList.drop j ≠ [] := by rw [drop_byte s j hj]; simp
  have HU := Lib.hid hu
  have HML := Lib.hid (fun W (hb : But b w W) => ml_but hm h.at hb)
  clear hs hj hm hi h62 hu
  have c2 : w.cell? ⟨b, 2, none⟩ = some (.int .i64 4) := h.cell 2
  have f2 := h.frozen 2
  clear h
  obtain ⟨w1, hw1⟩ : ∃ w1, w1 = w.setCell ⟨b, 2, none⟩ (.int .i64 5) := ⟨_, rfl⟩
  have h1 : DAt w1 b s j ⟨5, q, name, hn, pub, hp, sys, hsy, qk⟩ := by rw [hw1]; exact HAT0.out.setSt 5
  have hb1 : But b w w1 := by rw [hw1]; exact But.set _ _ _ _
  have HW1 := Lib.hid hw1
  clear hw1
  have hO := dOpen b s j ⟨5, q, name, hn, pub, hp, sys, hsy, qk⟩ false (by have := HJ.out; omega) (by have := HS.out; omega) w1 h1
  simp only [Bool.false_eq_true, if_false] at hO
  have HO := Lib.hid hO
  clear h1 hO
  go_enter Tryz.func66, Tryz.ntmps66
  go_wp2_with fail
  rw [← HW1.out]
  refine HO.out.mono ?_
  rintro e w2 ⟨rfl, hb2, N, hsk, hor⟩
  have HSK := Lib.hid hsk
  have HOR := Lib.hid hor
  have hbb := hb1.trans hb2
  clear hsk hor
  go_wp2_with fail
  go_end0
  refine ⟨rfl, hbb, ?_⟩
  rcases HOR.out with ⟨hN, hjN, h2⟩ | ⟨rfl, hj1, Q, c, hQ, hc, hd, h2⟩ | ⟨rfl, hq, h2⟩
  · refine ⟨j + N, _, h2, ⟨by simp, fun h => by simp at h, fun _ => HI.out.pub (by simp), fun _ => HI.out.sys (by simp), fun h => by simp at h, fun h => by simp at h⟩, by omega, hjN, ?_, by have := HJ.out; simp only [dRk]; omega⟩
    rw [HSK.out]
    exact kbp_sk _ _
  · refine ⟨j + 1, _, h2, ⟨by simp [opened], fun _ => ⟨c, by simpa [opened] using hQ, hc⟩, fun h => by simp [opened] at h, fun _ => HI.out.sys (by simp), fun h => by simp [opened] at h, fun h => by simp [opened] at h⟩, by omega, hj1, ?_, by have := HJ.out; simp only [dRk, opened]; simp; omega⟩
    have hsk := HSK.out
    rw [Nat.add_zero] at hsk
    exact (kbp_open hsk hd hc hQ (bl_nil (HI.out.pub (by simp)))).symm
  · refine ⟨j, _, h2, ⟨by simp, fun h => by simp at h, fun h => by simp at h, fun h => by simp at h, fun h => by simp at h, fun h => by simp at h⟩, Nat.le_refl _, by have := HJ.out; omega, ?_, by simp only [dRk]; omega⟩
    have hsk := HSK.out
    rw [Nat.add_zero] at hsk
    exact (kbp_bogus (T := dT ⟨5, q, name, hn, pub, hp, sys, hsy, qk⟩) hsk HU.out H62.out hq).symm

theorem dStep5 (b : Nat) (s : ByteArray) (j : Nat) (q name : ByteArray) (hn : Bool) (pub : ByteArray) (hp : Bool) (sys : ByteArray) (hsy qk : Bool) (hi : DInv ⟨5, q, name, hn, pub, hp, sys, hsy, qk⟩) (hj : j < s.size) (h62 : [62].isPrefixOf (s.data.toList.drop j) = false) (hs : s.size ≤ 1000000) (m : Int) (w : World) (hm : w.cell? ⟨1, 0, none⟩ = some (.int .i64 m)) (h : DAt w b s j ⟨5, q, name, hn, pub, hp, sys, hsy, qk⟩) :
    Calls Tryz.prog 66 #[.pointer (some ⟨b, 0, none⟩)] w (StepP b s j ⟨5, q, name, hn, pub, hp, sys, hsy, qk⟩ w) := by
  have HS := Lib.hid hs
  have HJ := Lib.hid hj
  have HM := Lib.hid hm
  have HI := Lib.hid hi
  have H62 := Lib.hid h62
  have HAT0 := Lib.hid h
  have hu : s.data.toList.drop j ≠ [] := by rw [drop_byte s j hj]; simp
  have HU := Lib.hid hu
  have HML := Lib.hid (fun W (hb : But b w W) => ml_but hm h.at hb)
  clear hs hj hm hi h62 hu
  have c2 : w.cell? ⟨b, 2, none⟩ = some (.int .i64 5) := h.cell 2
  have f2 := h.frozen 2
  clear h
  have h1 := HAT0.out
  have hb1 := But.refl b w
  obtain ⟨w1, hw1⟩ : ∃ w1, w1 = w := ⟨_, rfl⟩
  rw [← hw1] at h1
  replace hb1 : But b w w1 := by rw [hw1]; exact hb1
  have HW1 := Lib.hid hw1
  clear hw1
  have hO := dOpen b s j ⟨5, q, name, hn, pub, hp, sys, hsy, qk⟩ false (by have := HJ.out; omega) (by have := HS.out; omega) w1 h1
  simp only [Bool.false_eq_true, if_false] at hO
  have HO := Lib.hid hO
  clear h1 hO
  go_enter Tryz.func66, Tryz.ntmps66
  go_wp2_with fail
  rw [← HW1.out]
  refine HO.out.mono ?_
  rintro e w2 ⟨rfl, hb2, N, hsk, hor⟩
  have HSK := Lib.hid hsk
  have HOR := Lib.hid hor
  have hbb := hb1.trans hb2
  clear hsk hor
  go_wp2_with fail
  go_end0
  refine ⟨rfl, hbb, ?_⟩
  rcases HOR.out with ⟨hN, hjN, h2⟩ | ⟨rfl, hj1, Q, c, hQ, hc, hd, h2⟩ | ⟨rfl, hq, h2⟩
  · refine ⟨j + N, _, h2, ⟨by simp, fun h => by simp at h, fun _ => HI.out.pub (by simp), fun _ => HI.out.sys (by simp), fun h => by simp at h, fun h => by simp at h⟩, by omega, hjN, ?_, by have := HJ.out; simp only [dRk]; omega⟩
    rw [HSK.out]
    exact kbp_sk _ _
  · refine ⟨j + 1, _, h2, ⟨by simp [opened], fun _ => ⟨c, by simpa [opened] using hQ, hc⟩, fun h => by simp [opened] at h, fun _ => HI.out.sys (by simp), fun h => by simp [opened] at h, fun h => by simp [opened] at h⟩, by omega, hj1, ?_, by have := HJ.out; simp only [dRk, opened]; simp; omega⟩
    have hsk := HSK.out
    rw [Nat.add_zero] at hsk
    exact (kbp_open hsk hd hc hQ (bl_nil (HI.out.pub (by simp)))).symm
  · refine ⟨j, _, h2, ⟨by simp, fun h => by simp at h, fun h => by simp at h, fun h => by simp at h, fun h => by simp at h, fun h => by simp at h⟩, Nat.le_refl _, by have := HJ.out; omega, ?_, by simp only [dRk]; omega⟩
    have hsk := HSK.out
    rw [Nat.add_zero] at hsk
    exact (kbp_bogus (T := dT ⟨5, q, name, hn, pub, hp, sys, hsy, qk⟩) hsk HU.out H62.out hq).symm

theorem dStep7 (b : Nat) (s : ByteArray) (j : Nat) (q name : ByteArray) (hn : Bool) (pub : ByteArray) (hp : Bool) (sys : ByteArray) (hsy qk : Bool) (hi : DInv ⟨7, q, name, hn, pub, hp, sys, hsy, qk⟩) (hj : j < s.size) (h62 : [62].isPrefixOf (s.data.toList.drop j) = false) (hs : s.size ≤ 1000000) (m : Int) (w : World) (hm : w.cell? ⟨1, 0, none⟩ = some (.int .i64 m)) (h : DAt w b s j ⟨7, q, name, hn, pub, hp, sys, hsy, qk⟩) :
    Calls Tryz.prog 66 #[.pointer (some ⟨b, 0, none⟩)] w (StepP b s j ⟨7, q, name, hn, pub, hp, sys, hsy, qk⟩ w) := by
  have HS := Lib.hid hs
  have HJ := Lib.hid hj
  have HM := Lib.hid hm
  have HI := Lib.hid hi
  have H62 := Lib.hid h62
  have HAT0 := Lib.hid h
  have hu : s.data.toList.drop j ≠ [] := by rw [drop_byte s j hj]; simp
  have HU := Lib.hid hu
  have HML := Lib.hid (fun W (hb : But b w W) => ml_but hm h.at hb)
  clear hs hj hm hi h62 hu
  have c2 : w.cell? ⟨b, 2, none⟩ = some (.int .i64 7) := h.cell 2
  have f2 := h.frozen 2
  clear h
  obtain ⟨w1, hw1⟩ : ∃ w1, w1 = w.setCell ⟨b, 2, none⟩ (.int .i64 8) := ⟨_, rfl⟩
  have h1 : DAt w1 b s j ⟨8, q, name, hn, pub, hp, sys, hsy, qk⟩ := by rw [hw1]; exact HAT0.out.setSt 8
  have hb1 : But b w w1 := by rw [hw1]; exact But.set _ _ _ _
  have HW1 := Lib.hid hw1
  clear hw1
  have hO := dOpen b s j ⟨8, q, name, hn, pub, hp, sys, hsy, qk⟩ true (by have := HJ.out; omega) (by have := HS.out; omega) w1 h1
  simp only [if_true] at hO
  have HO := Lib.hid hO
  clear h1 hO
  go_enter Tryz.func66, Tryz.ntmps66
  go_wp2_with fail
  rw [← HW1.out]
  refine HO.out.mono ?_
  rintro e w2 ⟨rfl, hb2, N, hsk, hor⟩
  have HSK := Lib.hid hsk
  have HOR := Lib.hid hor
  have hbb := hb1.trans hb2
  clear hsk hor
  go_wp2_with fail
  go_end0
  refine ⟨rfl, hbb, ?_⟩
  rcases HOR.out with ⟨hN, hjN, h2⟩ | ⟨rfl, hj1, Q, c, hQ, hc, hd, h2⟩ | ⟨rfl, hq, h2⟩
  · refine ⟨j + N, _, h2, ⟨by simp, fun h => by simp at h, fun h => by simp at h, fun _ => HI.out.sys (by simp), fun h => by simp at h, fun h => by simp at h⟩, by omega, hjN, ?_, by have := HJ.out; simp only [dRk]; omega⟩
    rw [HSK.out]
    exact kbs_sk false _ _
  · refine ⟨j + 1, _, h2, ⟨by simp [opened], fun _ => ⟨c, by simpa [opened] using hQ, hc⟩, fun h => by simp [opened] at h, fun h => by simp [opened] at h, fun h => by simp [opened] at h, fun h => by simp [opened] at h⟩, by omega, hj1, ?_, by have := HJ.out; simp only [dRk, opened]; simp; omega⟩
    have hsk := HSK.out
    rw [Nat.add_zero] at hsk
    exact (kbs_open (g := false) hsk hd hc hQ (bl_nil (HI.out.sys (by simp)))).symm
  · refine ⟨j, _, h2, ⟨by simp, fun h => by simp at h, fun h => by simp at h, fun h => by simp at h, fun h => by simp at h, fun h => by simp at h⟩, Nat.le_refl _, by have := HJ.out; omega, ?_, by simp only [dRk]; omega⟩
    have hsk := HSK.out
    rw [Nat.add_zero] at hsk
    exact (kbs_bogus (g := false) (T := dT ⟨8, q, name, hn, pub, hp, sys, hsy, qk⟩) hsk HU.out H62.out hq).symm
end Go.Proofs.YtnfccckodgknjaaGreatDoor
