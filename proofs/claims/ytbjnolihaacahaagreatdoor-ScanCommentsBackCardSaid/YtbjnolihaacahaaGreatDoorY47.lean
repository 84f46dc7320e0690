/-
  Document type declarations: a step.
-/
import Derived.Test.YtbjnolihaacahaaGreatDoorY44
namespace Go.Proofs.YtbjnolihaacahaaGreatDoor
open Go.RowKit Go.Shelf Go.Lib
set_option maxHeartbeats 4000000
set_option maxRecDepth 100000

theorem dStep6 (b : Nat) (s : ByteArray) (j : Nat) (q name : ByteArray) (hn : Bool) (pub : ByteArray) (hp : Bool) (sys : ByteArray) (hsy qk : Bool) (hi : DInv ⟨6, q, name, hn, pub, hp, sys, hsy, qk⟩) (hj : j < s.size) (h62 : [62].isPrefixOf (s.data.toList.drop j) = false) (hs : s.size ≤ 1000000) (m : Int) (w : World) (hm : w.cell? ⟨1, 0, none⟩ = some (.int .i64 m)) (h : DAt w b s j ⟨6, q, name, hn, pub, hp, sys, hsy, qk⟩) :
    Calls Tryz.prog 69 #[.pointer (some ⟨b, 0, none⟩)] w (StepP b s j ⟨6, q, name, hn, pub, hp, sys, hsy, qk⟩ w) := by
  have HS := Lib.hid hs
  have HJ := Lib.hid hj
  have HM := Lib.hid hm
  have HI := Lib.hid hi
  have H62 := Lib.hid h62
  have HAT0 := Lib.hid h
  have hu : s.data.toList.drop j ≠ [] := by rw [drop_byte s j hj]; simp
  have HU := Lib.hid hu
  have HML := Lib.hid (fun W (hb : But b w W) => ml_but hm h.at hb)
  clear hs hj hm hi h62 hu
  have c2 : w.cell? ⟨b, 2, none⟩ = some (.int .i64 6) := h.cell 2
  have f2 := h.frozen 2
  clear h
  have h1 := HAT0.out
  have hb1 := But.refl b w
  obtain ⟨w1, hw1⟩ : ∃ w1, w1 = w := ⟨_, rfl⟩
  rw [← hw1] at h1
  replace hb1 : But b w w1 := by rw [hw1]; exact hb1
  have HW1 := Lib.hid hw1
  clear hw1
  obtain ⟨c, hQ, hc⟩ := HI.out.q (by simp)
  have hR := dRead b s j ⟨6, q, name, hn, pub, hp, sys, hsy, qk⟩ false c hQ hc (by have := HJ.out; omega) HS.out m w1 (by rw [HW1.out]; exact HM.out) h1
  simp only [Bool.false_eq_true, if_false] at hR
  have HR := Lib.hid hR
  have HQ := Lib.hid hQ
  have HC := Lib.hid hc
  clear h1 hR hQ hc
  go_enter Tryz.func69, Tryz.ntmps69
  go_wp2_with fail
  rw [← HW1.out]
  refine HR.out.mono ?_
  rintro e w2 ⟨rfl, hb2, V, hV, hor⟩
  have HV := Lib.hid hV
  have HOR := Lib.hid hor
  have hbb := hb1.trans hb2
  clear hV hor
  go_wp2_with fail
  go_end0
  refine ⟨rfl, hbb, ?_⟩
  rcases HOR.out with ⟨hp2, hj1, h2⟩ | ⟨hp2, hj1, h2⟩
  · refine ⟨_, _, h2, ⟨by simp, fun h => by simp at h, fun h => by simp at h, fun _ => HI.out.sys (by simp), fun h => by simp at h, fun h => by simp at h⟩, by omega, hj1, ?_, by have := HJ.out; simp only [dRk]; simp; omega⟩
    exact (idp_took HU.out H62.out hp2 HQ.out HV.out).symm
  · refine ⟨_, _, h2, ⟨by simp [named2], fun _ => ⟨c, by simpa [named2] using HQ.out, HC.out⟩, fun h => by simp [named2] at h, fun _ => HI.out.sys (by simp), fun h => by simp [named2] at h, fun h => by simp [named2] at h⟩, by omega, hj1, ?_, ?_⟩
    · exact (idp_rest HU.out H62.out hp2 HQ.out HV.out).symm
    · have hpos := id_pos HU.out H62.out (by rw [List.drop_drop]; exact hp2)
      have := HJ.out
      simp only [dRk, named2]; simp; omega

theorem dStep11 (b : Nat) (s : ByteArray) (j : Nat) (q name : ByteArray) (hn : Bool) (pub : ByteArray) (hp : Bool) (sys : ByteArray) (hsy qk : Bool) (hi : DInv ⟨11, q, name, hn, pub, hp, sys, hsy, qk⟩) (hj : j < s.size) (h62 : [62].isPrefixOf (s.data.toList.drop j) = false) (hs : s.size ≤ 1000000) (m : Int) (w : World) (hm : w.cell? ⟨1, 0, none⟩ = some (.int .i64 m)) (h : DAt w b s j ⟨11, q, name, hn, pub, hp, sys, hsy, qk⟩) :
    Calls Tryz.prog 69 #[.pointer (some ⟨b, 0, none⟩)] w (StepP b s j ⟨11, q, name, hn, pub, hp, sys, hsy, qk⟩ w) := by
  have HS := Lib.hid hs
  have HJ := Lib.hid hj
  have HM := Lib.hid hm
  have HI := Lib.hid hi
  have H62 := Lib.hid h62
  have HAT0 := Lib.hid h
  have hu : s.data.toList.drop j ≠ [] := by rw [drop_byte s j hj]; simp
  have HU := Lib.hid hu
  have HML := Lib.hid (fun W (hb : But b w W) => ml_but hm h.at hb)
  clear hs hj hm hi h62 hu
  have c2 : w.cell? ⟨b, 2, none⟩ = some (.int .i64 11) := h.cell 2
  have f2 := h.frozen 2
  clear h
  have h1 := HAT0.out
  have hb1 := But.refl b w
  obtain ⟨w1, hw1⟩ : ∃ w1, w1 = w := ⟨_, rfl⟩
  rw [← hw1] at h1
  replace hb1 : But b w w1 := by rw [hw1]; exact hb1
  have HW1 := Lib.hid hw1
  clear hw1
  obtain ⟨c, hQ, hc⟩ := HI.out.q (by simp)
  have hR := dRead b s j ⟨11, q, name, hn, pub, hp, sys, hsy, qk⟩ true c hQ hc (by have := HJ.out; omega) HS.out m w1 (by rw [HW1.out]; exact HM.out) h1
  simp only [if_true] at hR
  have HR := Lib.hid hR
  have HQ := Lib.hid hQ
  have HC := Lib.hid hc
  clear h1 hR hQ hc
  go_enter Tryz.func69, Tryz.ntmps69
  go_wp2_with fail
  rw [← HW1.out]
  refine HR.out.mono ?_
  rintro e w2 ⟨rfl, hb2, V, hV, hor⟩
  have HV := Lib.hid hV
  have HOR := Lib.hid hor
  have hbb := hb1.trans hb2
  clear hV hor
  go_wp2_with fail
  go_end0
  refine ⟨rfl, hbb, ?_⟩
  rcases HOR.out with ⟨hp2, hj1, h2⟩ | ⟨hp2, hj1, h2⟩
  · refine ⟨_, _, h2, ⟨by simp, fun h => by simp at h, fun h => by simp at h, fun h => by simp at h, fun h => by simp at h, fun h => by simp at h⟩, by omega, hj1, ?_, by have := HJ.out; simp only [dRk]; simp; omega⟩
    exact (ids_took HU.out H62.out hp2 HQ.out HV.out).symm
  · refine ⟨_, _, h2, ⟨by simp [named2], fun _ => ⟨c, by simpa [named2] using HQ.out, HC.out⟩, fun h => by simp [named2] at h, fun h => by simp [named2] at h, fun h => by simp [named2] at h, fun h => by simp [named2] at h⟩, by omega, hj1, ?_, ?_⟩
    · exact (ids_rest HU.out H62.out hp2 HQ.out HV.out).symm
    · have hpos := id_pos HU.out H62.out (by rw [List.drop_drop]; exact hp2)
      have := HJ.out
      simp only [dRk, named2]; simp; omega
end Go.Proofs.YtbjnolihaacahaaGreatDoor
