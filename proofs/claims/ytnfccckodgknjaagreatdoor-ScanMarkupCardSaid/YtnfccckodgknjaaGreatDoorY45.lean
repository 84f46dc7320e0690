/-
  Document type declarations: a step.
-/
import Derived.Test.YtnfccckodgknjaaGreatDoorY41
namespace Go.Proofs.YtnfccckodgknjaaGreatDoor
open Go.RowKit Go.Shelf Go.Lib
set_option maxHeartbeats 4000000
set_option maxRecDepth 100000

theorem dStep0 (b : Nat) (s : ByteArray) (j : Nat) (q name : ByteArray) (hn : Bool) (pub : ByteArray) (hp : Bool) (sys : ByteArray) (hsy qk : Bool) (hi : DInv ⟨0, q, name, hn, pub, hp, sys, hsy, qk⟩) (hj : j < s.size) (h62 : [62].isPrefixOf (s.data.toList.drop j) = false) (hs : s.size ≤ 1000000) (m : Int) (w : World) (hm : w.cell? ⟨1, 0, none⟩ = some (.int .i64 m)) (h : DAt w b s j ⟨0, q, name, hn, pub, hp, sys, hsy, qk⟩) :
    Calls Tryz.prog 66 #[.pointer (some ⟨b, 0, none⟩)] w (StepP b s j ⟨0, q, name, hn, pub, hp, sys, hsy, qk⟩ w) := by
  have HS := Lib.hid hs
  have HJ := Lib.hid hj
  have HM := Lib.hid hm
  have HI := Lib.hid hi
  have H62 := Lib.hid h62
  have HAT0 := Lib.hid h
  have hu : s.data.toList.drop j ≠ [] := by rw [drop_byte s j hj]; simp
  have HU := Lib.hid hu
  have HML := Lib.hid (fun W (hb : But b w W) => ml_but hm h.at hb)
  clear hs hj hm hi h62 hu
  have c2 : w.cell? ⟨b, 2, none⟩ = some (.int .i64 0) := h.cell 2
  have f2 := h.frozen 2
  clear h
  obtain ⟨w1, hw1⟩ : ∃ w1, w1 = w.setCell ⟨b, 2, none⟩ (.int .i64 1) := ⟨_, rfl⟩
  have h1 : DAt w1 b s j ⟨1, q, name, hn, pub, hp, sys, hsy, qk⟩ := by rw [hw1]; exact HAT0.out.setSt 1
  have hb1 : But b w w1 := by rw [hw1]; exact But.set _ _ _ _
  have HW1 := Lib.hid hw1
  clear hw1
  have HSp := Lib.hid (dSpaces b s j ⟨1, q, name, hn, pub, hp, sys, hsy, qk⟩ (by have := HJ.out; omega) (by have := HS.out; omega) w1 h1)
  clear h1
  go_enter Tryz.func66, Tryz.ntmps66
  go_wp2_with fail
  rw [← HW1.out]
  refine HSp.out.mono ?_
  rintro e w2 ⟨N, f, rfl, hf, hsk, hjN, h2, hb2⟩
  have HSK := Lib.hid hsk
  have HJN := Lib.hid hjN
  have H2 := Lib.hid h2
  have hbb := hb1.trans hb2
  by_cases hN : 0 < N
  · rw [decide_eq_true hN] at hf
    subst hf
    have HN := Lib.hid hN
    clear hsk hjN hN h2
    go_wp2_with fail
    go_end0
    refine ⟨rfl, hbb, j + N, ⟨1, q, name, hn, pub, hp, sys, hsy, qk⟩, H2.out, ⟨by simp, fun h => by simp at h, fun _ => HI.out.pub (by simp), fun _ => HI.out.sys (by simp), fun _ => HI.out.name (by simp), fun h => by simp at h⟩, by omega, HJN.out, ?_, by have := HN.out; have := HJ.out; have := HJN.out; simp only [dRk]; omega⟩
    rw [HSK.out]
    exact kbn_sk _ _
  · rw [decide_eq_false hN] at hf
    subst hf
    have hN0 : N = 0 := by omega
    subst hN0
    clear hsk hjN hN h2
    have c2 : w2.cell? ⟨b, 2, none⟩ = some (.int .i64 1) := H2.out.cell 2
    have f2 := H2.out.frozen 2
    have c6 : w2.cell? ⟨b, 6, none⟩ = some (.bool hn) := H2.out.cell 6
    have f6 := H2.out.frozen 6
    go_wp2_with fail
    go_end0
    refine ⟨rfl, (hbb.trans (But.set _ _ _ _)).trans (But.set _ _ _ _), j, ⟨2, q, name, true, pub, hp, sys, hsy, qk⟩, (H2.out.setSt 2).setHn true, ⟨by simp, fun h => by simp at h, fun _ => HI.out.pub (by simp), fun _ => HI.out.sys (by simp), fun _ => HI.out.name (by simp), fun _ => rfl⟩, Nat.le_refl _, by have := HJ.out; omega, ?_, by simp only [dRk]; omega⟩
    show kInName _ _ = kBeforeName _ _
    have hsk := HSK.out
    rw [Nat.add_zero] at hsk
    unfold kBeforeName
    rw [← hsk]
    cases hd : s.data.toList.drop j with
    | nil => exact absurd hd HU.out
    | cons c r =>
      have h62 := H62.out
      rw [hd] at h62
      simp only
      rw [if_neg (by rintro rfl; simp [List.isPrefixOf] at h62)]
      rfl

theorem dStep1 (b : Nat) (s : ByteArray) (j : Nat) (q name : ByteArray) (hn : Bool) (pub : ByteArray) (hp : Bool) (sys : ByteArray) (hsy qk : Bool) (hi : DInv ⟨1, q, name, hn, pub, hp, sys, hsy, qk⟩) (hj : j < s.size) (h62 : [62].isPrefixOf (s.data.toList.drop j) = false) (hs : s.size ≤ 1000000) (m : Int) (w : World) (hm : w.cell? ⟨1, 0, none⟩ = some (.int .i64 m)) (h : DAt w b s j ⟨1, q, name, hn, pub, hp, sys, hsy, qk⟩) :
    Calls Tryz.prog 66 #[.pointer (some ⟨b, 0, none⟩)] w (StepP b s j ⟨1, q, name, hn, pub, hp, sys, hsy, qk⟩ w) := by
  have HS := Lib.hid hs
  have HJ := Lib.hid hj
  have HM := Lib.hid hm
  have HI := Lib.hid hi
  have H62 := Lib.hid h62
  have HAT0 := Lib.hid h
  have hu : s.data.toList.drop j ≠ [] := by rw [drop_byte s j hj]; simp
  have HU := Lib.hid hu
  have HML := Lib.hid (fun W (hb : But b w W) => ml_but hm h.at hb)
  clear hs hj hm hi h62 hu
  have c2 : w.cell? ⟨b, 2, none⟩ = some (.int .i64 1) := h.cell 2
  have f2 := h.frozen 2
  clear h
  have h1 := HAT0.out
  have hb1 := But.refl b w
  obtain ⟨w1, hw1⟩ : ∃ w1, w1 = w := ⟨_, rfl⟩
  rw [← hw1] at h1
  replace hb1 : But b w w1 := by rw [hw1]; exact hb1
  have HW1 := Lib.hid hw1
  clear hw1
  have HSp := Lib.hid (dSpaces b s j ⟨1, q, name, hn, pub, hp, sys, hsy, qk⟩ (by have := HJ.out; omega) (by have := HS.out; omega) w1 h1)
  clear h1
  go_enter Tryz.func66, Tryz.ntmps66
  go_wp2_with fail
  rw [← HW1.out]
  refine HSp.out.mono ?_
  rintro e w2 ⟨N, f, rfl, hf, hsk, hjN, h2, hb2⟩
  have HSK := Lib.hid hsk
  have HJN := Lib.hid hjN
  have H2 := Lib.hid h2
  have hbb := hb1.trans hb2
  by_cases hN : 0 < N
  · rw [decide_eq_true hN] at hf
    subst hf
    have HN := Lib.hid hN
    clear hsk hjN hN h2
    go_wp2_with fail
    go_end0
    refine ⟨rfl, hbb, j + N, ⟨1, q, name, hn, pub, hp, sys, hsy, qk⟩, H2.out, ⟨by simp, fun h => by simp at h, fun _ => HI.out.pub (by simp), fun _ => HI.out.sys (by simp), fun _ => HI.out.name (by simp), fun h => by simp at h⟩, by omega, HJN.out, ?_, by have := HN.out; have := HJ.out; have := HJN.out; simp only [dRk]; omega⟩
    rw [HSK.out]
    exact kbn_sk _ _
  · rw [decide_eq_false hN] at hf
    subst hf
    have hN0 : N = 0 := by omega
    subst hN0
    clear hsk hjN hN h2
    have c2 : w2.cell? ⟨b, 2, none⟩ = some (.int .i64 1) := H2.out.cell 2
    have f2 := H2.out.frozen 2
    have c6 : w2.cell? ⟨b, 6, none⟩ = some (.bool hn) := H2.out.cell 6
    have f6 := H2.out.frozen 6
    go_wp2_with fail
    go_end0
    refine ⟨rfl, (hbb.trans (But.set _ _ _ _)).trans (But.set _ _ _ _), j, ⟨2, q, name, true, pub, hp, sys, hsy, qk⟩, (H2.out.setSt 2).setHn true, ⟨by simp, fun h => by simp at h, fun _ => HI.out.pub (by simp), fun _ => HI.out.sys (by simp), fun _ => HI.out.name (by simp), fun _ => rfl⟩, Nat.le_refl _, by have := HJ.out; omega, ?_, by simp only [dRk]; omega⟩
    show kInName _ _ = kBeforeName _ _
    have hsk := HSK.out
    rw [Nat.add_zero] at hsk
    unfold kBeforeName
    rw [← hsk]
    cases hd : s.data.toList.drop j with
    | nil => exact absurd hd HU.out
    | cons c r =>
      have h62 := H62.out
      rw [hd] at h62
      simp only
      rw [if_neg (by rintro rfl; simp [List.isPrefixOf] at h62)]
      rfl

theorem dStep12 (b : Nat) (s : ByteArray) (j : Nat) (q name : ByteArray) (hn : Bool) (pub : ByteArray) (hp : Bool) (sys : ByteArray) (hsy qk : Bool) (hi : DInv ⟨12, q, name, hn, pub, hp, sys, hsy, qk⟩) (hj : j < s.size) (h62 : [62].isPrefixOf (s.data.toList.drop j) = false) (hs : s.size ≤ 1000000) (m : Int) (w : World) (hm : w.cell? ⟨1, 0, none⟩ = some (.int .i64 m)) (h : DAt w b s j ⟨12, q, name, hn, pub, hp, sys, hsy, qk⟩) :
    Calls Tryz.prog 66 #[.pointer (some ⟨b, 0, none⟩)] w (StepP b s j ⟨12, q, name, hn, pub, hp, sys, hsy, qk⟩ w) := by
  have HS := Lib.hid hs
  have HJ := Lib.hid hj
  have HM := Lib.hid hm
  have HI := Lib.hid hi
  have H62 := Lib.hid h62
  have HAT0 := Lib.hid h
  have hu : s.data.toList.drop j ≠ [] := by rw [drop_byte s j hj]; simp
  have HU := Lib.hid hu
  have HML := Lib.hid (fun W (hb : But b w W) => ml_but hm h.at hb)
  clear hs hj hm hi h62 hu
  have c2 : w.cell? ⟨b, 2, none⟩ = some (.int .i64 12) := h.cell 2
  have f2 := h.frozen 2
  clear h
  have h1 := HAT0.out
  have hb1 := But.refl b w
  obtain ⟨w1, hw1⟩ : ∃ w1, w1 = w := ⟨_, rfl⟩
  rw [← hw1] at h1
  replace hb1 : But b w w1 := by rw [hw1]; exact hb1
  have HW1 := Lib.hid hw1
  clear hw1
  have HSp := Lib.hid (dSpaces b s j ⟨12, q, name, hn, pub, hp, sys, hsy, qk⟩ (by have := HJ.out; omega) (by have := HS.out; omega) w1 h1)
  clear h1
  go_enter Tryz.func66, Tryz.ntmps66
  go_wp2_with fail
  rw [← HW1.out]
  refine HSp.out.mono ?_
  rintro e w2 ⟨N, f, rfl, hf, hsk, hjN, h2, hb2⟩
  have HSK := Lib.hid hsk
  have HJN := Lib.hid hjN
  have H2 := Lib.hid h2
  have hbb := hb1.trans hb2
  by_cases hN : 0 < N
  · rw [decide_eq_true hN] at hf
    subst hf
    have HN := Lib.hid hN
    clear hsk hjN hN h2
    go_wp2_with fail
    go_end0
    refine ⟨rfl, hbb, j + N, ⟨12, q, name, hn, pub, hp, sys, hsy, qk⟩, H2.out, ⟨by simp, fun h => by simp at h, fun h => by simp at h, fun h => by simp at h, fun h => by simp at h, fun h => by simp at h⟩, by omega, HJN.out, ?_, by have := HN.out; have := HJ.out; have := HJN.out; simp only [dRk]; omega⟩
    rw [HSK.out]
    exact kas_sk _ _
  · rw [decide_eq_false hN] at hf
    subst hf
    have hN0 : N = 0 := by omega
    subst hN0
    clear hsk hjN hN h2
    have c2 : w2.cell? ⟨b, 2, none⟩ = some (.int .i64 12) := H2.out.cell 2
    have f2 := H2.out.frozen 2
    go_wp2_with fail
    go_end0
    refine ⟨rfl, hbb.trans (But.set _ _ _ _), j, ⟨13, q, name, hn, pub, hp, sys, hsy, qk⟩, H2.out.setSt 13, ⟨by simp, fun h => by simp at h, fun h => by simp at h, fun h => by simp at h, fun h => by simp at h, fun h => by simp at h⟩, Nat.le_refl _, by have := HJ.out; omega, ?_, by simp only [dRk]; omega⟩
    show kBogus _ _ = kAfterSystem _ _
    have hsk := HSK.out
    rw [Nat.add_zero] at hsk
    unfold kAfterSystem
    rw [← hsk, if_neg HU.out]
    rfl
end Go.Proofs.YtnfccckodgknjaaGreatDoor
