/-
  Document type declarations: a step.
-/
import Derived.Test.YtnfccckodgknjaaGreatDoorY41
namespace Go.Proofs.YtnfccckodgknjaaGreatDoor
open Go.RowKit Go.Shelf Go.Lib
set_option maxHeartbeats 4000000
set_option maxRecDepth 100000

theorem dStep2 (b : Nat) (s : ByteArray) (j : Nat) (q name : ByteArray) (hn : Bool) (pub : ByteArray) (hp : Bool) (sys : ByteArray) (hsy qk : Bool) (hi : DInv ⟨2, q, name, hn, pub, hp, sys, hsy, qk⟩) (hj : j < s.size) (h62 : [62].isPrefixOf (s.data.toList.drop j) = false) (hs : s.size ≤ 1000000) (m : Int) (w : World) (hm : w.cell? ⟨1, 0, none⟩ = some (.int .i64 m)) (h : DAt w b s j ⟨2, q, name, hn, pub, hp, sys, hsy, qk⟩) :
    Calls Tryz.prog 66 #[.pointer (some ⟨b, 0, none⟩)] w (StepP b s j ⟨2, q, name, hn, pub, hp, sys, hsy, qk⟩ w) := by
  have HS := Lib.hid hs
  have HJ := Lib.hid hj
  have HM := Lib.hid hm
  have HI := Lib.hid hi
  have H62 := Lib.hid h62
  have HAT0 := Lib.hid h
  have hu : s.data.toList.drop j ≠ [] := by rw [drop_byte s j hj]; simp
  have HU := Lib.hid hu
  have HML := Lib.hid (fun W (hb : But b w W) => ml_but hm h.at hb)
  clear hs hj hm hi h62 hu
  have c2 : w.cell? ⟨b, 2, none⟩ = some (.int .i64 2) := h.cell 2
  have f2 := h.frozen 2
  clear h
  have h1 := HAT0.out
  have hb1 := But.refl b w
  obtain ⟨w1, hw1⟩ : ∃ w1, w1 = w := ⟨_, rfl⟩
  rw [← hw1] at h1
  replace hb1 : But b w w1 := by rw [hw1]; exact hb1
  have HW1 := Lib.hid hw1
  clear hw1
  have HUn := Lib.hid (dUntil 132 #[] (fun args w => enters_of Tryz.func132 (by kernel_rfl) rfl args w) (fun r => ewB r) false hi_word ewU q_ew b s j ⟨2, q, name, hn, pub, hp, sys, hsy, qk⟩ (by have := HJ.out; omega) (by have := HS.out; omega) w1 (grows_word _) h1)
  clear h1
  go_enter Tryz.func66, Tryz.ntmps66
  go_wp2_with fail
  rw [← HW1.out]
  refine HUn.out.mono ?_
  rintro e w2 ⟨N, V, hN, hjN, rfl, hV, hVz, h2, hb2⟩
  have hbb := hb1.trans hb2
  have HKe := Lib.hid (keptE m V (by have := HS.out; omega) w2 (HML.out w2 hbb))
  have HN := Lib.hid hN
  have HJN := Lib.hid hjN
  have HV := Lib.hid hV
  have HVZ := Lib.hid hVz
  have H2 := Lib.hid h2
  clear hN hjN hV hVz h2
  go_wp2_with fail
  refine HKe.out.mono ?_
  rintro e w3 ⟨V3, rfl, hV3, hz3, hb3⟩
  have HLo := Lib.hid (lowerE V3 (by have := HVZ.out; have := HJN.out; have := HS.out; omega) w3)
  have HV3 := Lib.hid hV3
  clear hV3 hz3
  go_wp2_with fail
  refine HLo.out.mono ?_
  rintro e w4 ⟨V4, rfl, hV4, _, hb4⟩
  have HV4 := Lib.hid hV4
  have h4 := (H2.out.below hb3).below hb4
  have hbb4 := (hbb.trans (But.of_below hb3)).trans (But.of_below hb4)
  have c5 : w4.cell? ⟨b, 5, none⟩ = some (.string name) := h4.cell 5
  have c2 : w4.cell? ⟨b, 2, none⟩ = some (.int .i64 2) := h4.cell 2
  have f5 := h4.frozen 5
  have f2 := h4.frozen 2
  have H4 := Lib.hid h4
  clear hV4 h4
  go_wp2_with fail
  go_end0
  refine ⟨rfl, (hbb4.trans (But.set _ _ _ _)).trans (But.set _ _ _ _), j + N, ⟨3, q, V4, hn, pub, hp, sys, hsy, qk⟩, (H4.out.setName V4).setSt 3, ⟨by simp, fun h => by simp at h, fun _ => HI.out.pub (by simp), fun _ => HI.out.sys (by simp), fun h => by simp at h, fun h => by simp at h⟩, by omega, HJN.out, ?_, by simp only [dRk]; omega⟩
  show kAfterName _ _ = kInName _ _
  unfold kInName
  have hhn : hn = true := HI.out.hn rfl
  rw [← HN.out, List.drop_drop, ← HV.out, ← HV3.out, ← HV4.out]
  show kAfterName (dT _) _ = kAfterName { dT _ with name := _, hasName := true } _
  rw [hhn]
  rfl

theorem dStep3 (b : Nat) (s : ByteArray) (j : Nat) (q name : ByteArray) (hn : Bool) (pub : ByteArray) (hp : Bool) (sys : ByteArray) (hsy qk : Bool) (hi : DInv ⟨3, q, name, hn, pub, hp, sys, hsy, qk⟩) (hj : j < s.size) (h62 : [62].isPrefixOf (s.data.toList.drop j) = false) (hs : s.size ≤ 1000000) (m : Int) (w : World) (hm : w.cell? ⟨1, 0, none⟩ = some (.int .i64 m)) (h : DAt w b s j ⟨3, q, name, hn, pub, hp, sys, hsy, qk⟩) :
    Calls Tryz.prog 66 #[.pointer (some ⟨b, 0, none⟩)] w (StepP b s j ⟨3, q, name, hn, pub, hp, sys, hsy, qk⟩ w) := by
  have HS := Lib.hid hs
  have HJ := Lib.hid hj
  have HM := Lib.hid hm
  have HI := Lib.hid hi
  have H62 := Lib.hid h62
  have HAT0 := Lib.hid h
  have hu : s.data.toList.drop j ≠ [] := by rw [drop_byte s j hj]; simp
  have HU := Lib.hid hu
  have HML := Lib.hid (fun W (hb : But b w W) => ml_but hm h.at hb)
  clear hs hj hm hi h62 hu
  have c2 : w.cell? ⟨b, 2, none⟩ = some (.int .i64 3) := h.cell 2
  have f2 := h.frozen 2
  clear h
  have h1 := HAT0.out
  have hb1 := But.refl b w
  obtain ⟨w1, hw1⟩ : ∃ w1, w1 = w := ⟨_, rfl⟩
  rw [← hw1] at h1
  replace hb1 : But b w w1 := by rw [hw1]; exact hb1
  have HW1 := Lib.hid hw1
  clear hw1
  have HK := Lib.hid (dKeyword b s j ⟨3, q, name, hn, pub, hp, sys, hsy, qk⟩ (by have := HJ.out; omega) (by have := HS.out; omega) w1 h1)
  clear h1
  go_enter Tryz.func66, Tryz.ntmps66
  go_wp2_with fail
  rw [← HW1.out]
  refine HK.out.mono ?_
  rintro e w2 ⟨rfl, hb2, N, hsk, hor⟩
  have HSK := Lib.hid hsk
  have HOR := Lib.hid hor
  have hbb := hb1.trans hb2
  clear hsk hor
  go_wp2_with fail
  go_end0
  refine ⟨rfl, hbb, ?_⟩
  rcases HOR.out with ⟨hN, hjN, h2⟩ | ⟨rfl, h6, hl, h2⟩ | ⟨rfl, h6, hl1, hl, h2⟩ | ⟨rfl, hl1, hl, h2⟩
  · refine ⟨j + N, _, h2, ⟨by simp, fun h => by simp at h, fun _ => HI.out.pub (by simp), fun _ => HI.out.sys (by simp), fun h => by simp at h, fun h => by simp at h⟩, by omega, hjN, ?_, by have := HJ.out; simp only [dRk]; omega⟩
    rw [HSK.out]
    exact kan_sk _ _
  · refine ⟨j + 6, _, h2, ⟨by simp, fun h => by simp at h, fun _ => HI.out.pub (by simp), fun _ => HI.out.sys (by simp), fun h => by simp at h, fun h => by simp at h⟩, by omega, h6, ?_, by have := HJ.out; simp only [dRk]; omega⟩
    have hsk := HSK.out
    rw [Nat.add_zero] at hsk
    rw [show s.data.toList.drop (j + 6) = (s.data.toList.drop j).drop 6 by rw [List.drop_drop]]
    exact (kan_public _ hsk HU.out H62.out hl).symm
  · refine ⟨j + 6, _, h2, ⟨by simp, fun h => by simp at h, fun h => by simp at h, fun _ => HI.out.sys (by simp), fun h => by simp at h, fun h => by simp at h⟩, by omega, h6, ?_, by have := HJ.out; simp only [dRk]; omega⟩
    have hsk := HSK.out
    rw [Nat.add_zero] at hsk
    rw [show s.data.toList.drop (j + 6) = (s.data.toList.drop j).drop 6 by rw [List.drop_drop]]
    exact (kan_system _ hsk HU.out H62.out hl1 hl).symm
  · refine ⟨j, _, h2, ⟨by simp, fun h => by simp at h, fun h => by simp at h, fun h => by simp at h, fun h => by simp at h, fun h => by simp at h⟩, Nat.le_refl _, by have := HJ.out; omega, ?_, by simp only [dRk]; omega⟩
    have hsk := HSK.out
    rw [Nat.add_zero] at hsk
    exact (kan_bogus (dT ⟨3, q, name, hn, pub, hp, sys, hsy, qk⟩) hsk HU.out H62.out hl1 hl).symm
end Go.Proofs.YtnfccckodgknjaaGreatDoor
