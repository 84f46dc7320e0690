/-
  Document type declarations: a step.
-/
import Derived.Test.YtbjnolihaacahaaGreatDoorY44
namespace Go.Proofs.YtbjnolihaacahaaGreatDoor
open Go.RowKit Go.Shelf Go.Lib
set_option maxHeartbeats 4000000
set_option maxRecDepth 100000

theorem dStep13 (b : Nat) (s : ByteArray) (j : Nat) (q name : ByteArray) (hn : Bool) (pub : ByteArray) (hp : Bool) (sys : ByteArray) (hsy qk : Bool) (hi : DInv ⟨13, q, name, hn, pub, hp, sys, hsy, qk⟩) (hj : j < s.size) (h62 : [62].isPrefixOf (s.data.toList.drop j) = false) (hs : s.size ≤ 1000000) (m : Int) (w : World) (hm : w.cell? ⟨1, 0, none⟩ = some (.int .i64 m)) (h : DAt w b s j ⟨13, q, name, hn, pub, hp, sys, hsy, qk⟩) :
    Calls Tryz.prog 69 #[.pointer (some ⟨b, 0, none⟩)] w (StepP b s j ⟨13, q, name, hn, pub, hp, sys, hsy, qk⟩ w) := by
  have HS := Lib.hid hs
  have HJ := Lib.hid hj
  have HM := Lib.hid hm
  have HI := Lib.hid hi
  have H62 := Lib.hid h62
  have HAT0 := Lib.hid h
  have hu : s.data.toList.drop j ≠ [] := by rw [drop_byte s j hj]; simp
  have HU := Lib.hid hu
  have HML := Lib.hid (fun W (hb : But b w W) => ml_but hm h.at hb)
  clear hs hj hm hi h62 hu
  have c2 : w.cell? ⟨b, 2, none⟩ = some (.int .i64 13) := h.cell 2
  have f2 := h.frozen 2
  clear h
  have h1 := HAT0.out
  have hb1 := But.refl b w
  obtain ⟨w1, hw1⟩ : ∃ w1, w1 = w := ⟨_, rfl⟩
  rw [← hw1] at h1
  replace hb1 : But b w w1 := by rw [hw1]; exact hb1
  have HW1 := Lib.hid hw1
  clear hw1
  have HUn := Lib.hid (dUntil 129 #[] (fun args w => enters_of Tryz.func129 (by kernel_rfl) rfl args w) (fun r => gtB r) false hi_greater _ q_gt b s j ⟨13, q, name, hn, pub, hp, sys, hsy, qk⟩ (by have := HJ.out; omega) (by have := HS.out; omega) w1 (grows_greater _) h1)
  clear h1
  go_enter Tryz.func69, Tryz.ntmps69
  go_wp2_with fail
  rw [← HW1.out]
  refine HUn.out.mono ?_
  rintro e w2 ⟨N, V, hN, hjN, rfl, _, _, h2, hb2⟩
  have hbb := hb1.trans hb2
  have HN := Lib.hid hN
  have HJN := Lib.hid hjN
  have H2 := Lib.hid h2
  clear hN hjN h2
  go_wp2_with fail
  go_end0
  have hpos : 0 < N := by
    rcases Nat.eq_zero_or_pos N with h0 | h0
    · exfalso
      have hd := drop_byte s j HJ.out
      have h62 := H62.out
      have hn := HN.out
      rw [hd] at h62 hn
      have hne : ((fun b => b == 62) (s[j]'HJ.out)) = false := by
        show (_ == _) = false
        rw [beq_eq_false_iff_ne]
        intro e
        rw [e] at h62
        simp [List.isPrefixOf] at h62
      rw [runN_no (q := fun b => b == 62) _ hne] at hn
      omega
    · exact h0
  refine ⟨rfl, hbb, j + N, ⟨13, q, name, hn, pub, hp, sys, hsy, qk⟩, H2.out, ⟨by simp, fun h => by simp at h, fun h => by simp at h, fun h => by simp at h, fun h => by simp at h, fun h => by simp at h⟩, by omega, HJN.out, ?_, by have := HJN.out; have := HJ.out; simp only [dRk]; omega⟩
  show kBogus _ _ = kBogus _ _
  unfold kBogus
  rw [← List.drop_drop, HN.out, up_run]
end Go.Proofs.YtbjnolihaacahaaGreatDoor
