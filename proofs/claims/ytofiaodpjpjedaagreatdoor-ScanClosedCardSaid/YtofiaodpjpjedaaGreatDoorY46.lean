/-
  Document type declarations: a step, whatever the state.
  Doctype.
-/
import Derived.Test.YtofiaodpjpjedaaGreatDoorY43
import Derived.Test.YtofiaodpjpjedaaGreatDoorY45
import Derived.Test.YtofiaodpjpjedaaGreatDoorY42
import Derived.Test.YtofiaodpjpjedaaGreatDoorY44
import Derived.Test.YtofiaodpjpjedaaGreatDoorY41
namespace Go.Proofs.YtofiaodpjpjedaaGreatDoor
open Go.RowKit Go.Shelf Go.Lib
set_option maxHeartbeats 4000000
set_option maxRecDepth 100000

theorem dStep (b : Nat) (s : ByteArray) (j : Nat) (d : Dt) (hi : DInv d) (hj : j < s.size) (h62 : [62].isPrefixOf (s.data.toList.drop j) = false) (hs : s.size ≤ 1000000) (m : Int) (w : World) (hm : w.cell? ⟨1, 0, none⟩ = some (.int .i64 m)) (h : DAt w b s j d) :
    Calls Tryz.prog 95 #[.pointer (some ⟨b, 0, none⟩)] w (StepP b s j d w) := by
  have hst := hi.st
  obtain ⟨st, q, name, hn, pub, hp, sys, hsy, qk⟩ := d
  have hcase : st = 0 ∨ st = 1 ∨ st = 2 ∨ st = 3 ∨ st = 4 ∨ st = 5 ∨ st = 6 ∨ st = 7 ∨ st = 8 ∨ st = 9 ∨ st = 10 ∨ st = 11 ∨ st = 12 ∨ st = 13 := by simp only at hst; omega
  clear hst
  rcases hcase with rfl | rfl | rfl | rfl | rfl | rfl | rfl | rfl | rfl | rfl | rfl | rfl | rfl | rfl
  · exact dStep0 b s j q name hn pub hp sys hsy qk hi hj h62 hs m w hm h
  · exact dStep1 b s j q name hn pub hp sys hsy qk hi hj h62 hs m w hm h
  · exact dStep2 b s j q name hn pub hp sys hsy qk hi hj h62 hs m w hm h
  · exact dStep3 b s j q name hn pub hp sys hsy qk hi hj h62 hs m w hm h
  · exact dStep4 b s j q name hn pub hp sys hsy qk hi hj h62 hs m w hm h
  · exact dStep5 b s j q name hn pub hp sys hsy qk hi hj h62 hs m w hm h
  · exact dStep6 b s j q name hn pub hp sys hsy qk hi hj h62 hs m w hm h
  · exact dStep7 b s j q name hn pub hp sys hsy qk hi hj h62 hs m w hm h
  · exact dStep8 b s j q name hn pub hp sys hsy qk hi hj h62 hs m w hm h
  · exact dStep9 b s j q name hn pub hp sys hsy qk hi hj h62 hs m w hm h
  · exact dStep10 b s j q name hn pub hp sys hsy qk hi hj h62 hs m w hm h
  · exact dStep11 b s j q name hn pub hp sys hsy qk hi hj h62 hs m w hm h
  · exact dStep12 b s j q name hn pub hp sys hsy qk hi hj h62 hs m w hm h
  · exact dStep13 b s j q name hn pub hp sys hsy qk hi hj h62 hs m w hm h
end Go.Proofs.YtofiaodpjpjedaaGreatDoor

namespace Go.Proofs.YtofiaodpjpjedaaGreatDoor
open Go.RowKit Go.Shelf Go.Lib
set_option maxHeartbeats 4000000
set_option maxRecDepth 100000

/-- The token of a declaration. -/
def tokD (d : Dt) : Value := .agg #[.int .i64 1, .string d.name, .bool d.hn, .string d.pub, .bool d.hp, .string d.sys, .bool d.hs, .bool d.qk, .slice none 0 0, .bool false, .string ⟨#[]⟩, .int .i32 0]
def d00 : Dt := ⟨0, ⟨#[]⟩, ⟨#[]⟩, false, ⟨#[]⟩, false, ⟨#[]⟩, false, false⟩
theorem d00_inv : DInv d00 := ⟨by simp [d00], fun h => by simp [d00] at h, fun _ => rfl, fun _ => rfl, fun _ => rfl, fun h => by simp [d00] at h⟩
theorem d00_docL (u : List UInt8) : dG d00 u = docL u := rfl
/-- What Doctype returns. -/
def DocP (s : ByteArray) (a : Int) (w : World) (e : Ending) (w' : World) : Prop :=
  ∃ (d : Dt) (j : Nat), e = .returned (.tuple #[tokD d, .int .i64 (j : Nat)]) ∧ Below w.heap.size w w' ∧ clip s a ≤ j ∧ j ≤ s.size ∧ docL (tlS s a) = (dT d, s.data.toList.drop j)

theorem doctypeC (s : ByteArray) (a : Int) (m : Int) (hs : s.size ≤ 1000000) (w : World) (hm : w.cell? ⟨1, 0, none⟩ = some (.int .i64 m)) :
    Calls Tryz.prog 38 #[.string s, .int .i64 a] w (DocP s a w) := by
  have HC := Lib.hid (fun W => cursorAt s a (by unfold maxLen; omega) W)
  have HM := Lib.hid hm
  have hk := clip_le s a
  unfold DocP tlS
  generalize clip s a = k at HC hk ⊢
  have HK := Lib.hid hk
  have HS := Lib.hid hs
  clear hm hk hs
  go_enter Tryz.func38, Tryz.ntmps38
  go_wp2_with fail
  obtain ⟨w0, hw0⟩ : ∃ w0, w0 = w.alloc (.cells #[.int .i64 0, .string ⟨#[]⟩, .bool false, .string ⟨#[]⟩, .bool false, .string ⟨#[]⟩, .bool false, .bool false, .slice none 0 0, .bool false, .string ⟨#[]⟩, .int .i32 0] 40) := ⟨_, rfl⟩
  rw [← hw0]
  have hb0 : Below w.heap.size w w0 := by rw [hw0]; exact below_alloc (Below.refl _ _) _
  have ht0 : w0.heap[w.heap.size]? = some (.cells #[.int .i64 0, .string ⟨#[]⟩, .bool false, .string ⟨#[]⟩, .bool false, .string ⟨#[]⟩, .bool false, .bool false, .slice none 0 0, .bool false, .string ⟨#[]⟩, .int .i32 0] 40 (0, 0)) := by
    rw [hw0]; show (w.heap.push _)[w.heap.size]? = _; exact Array.getElem?_push_size
  clear hw0
  refine (HC.out w0).mono ?_
  rintro e w1 ⟨rfl, hb1⟩
  have ht1 := heap_below ht0 hb1
  replace hb1 := below_next hb0 hb1
  clear ht0 hb0
  go_wp2_with fail
  obtain ⟨w2, hw2⟩ : ∃ w2, w2 = w1.alloc (.cells #[.string s, .int .i64 k, .int .i64 0, .string ⟨#[]⟩, .int .i64 1, .string ⟨#[]⟩, .bool false, .string ⟨#[]⟩, .bool false, .string ⟨#[]⟩, .bool false, .bool false, .slice none 0 0, .bool false, .string ⟨#[]⟩, .int .i32 0] 92) := ⟨_, rfl⟩
  rw [← hw2]
  have hD : DAt w2 w1.heap.size s k d00 := by rw [hw2]; show (w1.heap.push _)[w1.heap.size]? = _; exact Array.getElem?_push_size
  have hB2 : Below w.heap.size w w2 := by rw [hw2]; exact below_alloc hb1 _
  have hT2 : w2.heap[w.heap.size]? = some (.cells #[.int .i64 0, .string ⟨#[]⟩, .bool false, .string ⟨#[]⟩, .bool false, .string ⟨#[]⟩, .bool false, .bool false, .slice none 0 0, .bool false, .string ⟨#[]⟩, .int .i32 0] 40 (0, 0)) := by
    rw [hw2]; exact heap_below ht1 (below_alloc (Below.refl _ _) _)
  have hrb : w.heap.size < w1.heap.size := (Array.getElem?_eq_some_iff.1 ht1).1
  have HRB := Lib.hid hrb
  clear hw2 ht1 hb1 hrb
  generalize w1.heap.size = rb at hD HRB ⊢
  go_wp2_with fail
  go_loopg [] (20 * (s.size - k) + dRk 0) (fun gn wr => ∃ (j : Nat) (d : Dt), gn = 20 * (s.size - j) + dRk d.st ∧ k ≤ j ∧ j ≤ s.size ∧ DInv d ∧ dG d (s.data.toList.drop j) = docL (s.data.toList.drop k) ∧ DAt wr rb s j d ∧ wr.heap[w.heap.size]? = some (.cells #[.int .i64 0, .string ⟨#[]⟩, .bool false, .string ⟨#[]⟩, .bool false, .string ⟨#[]⟩, .bool false, .bool false, .slice none 0 0, .bool false, .string ⟨#[]⟩, .int .i32 0] 40 (0, 0)) ∧ Below w.heap.size w wr)
  case atStart => exact ⟨k, d00, rfl, Nat.le_refl _, HK.out, d00_inv, d00_docL _, hD, hT2, hB2⟩
  case round =>
    obtain ⟨j, d, hgn, hkj, hjs, hinv, heq, hat, htk, hbb⟩ := hrel
    have HF := Lib.hid (dFinished rb s j d hinv.st hjs (by have := HS.out; omega) wr hat)
    have HGN := Lib.hid hgn
    have HKJ := Lib.hid hkj
    have HJS := Lib.hid hjs
    have HINV := Lib.hid hinv
    have HEQ := Lib.hid heq
    have HTK := Lib.hid htk
    have HBB := Lib.hid hbb
    clear hgn hkj hjs hinv heq hat htk hbb hD hT2 hB2
    go_wp2_with fail
    refine HF.out.mono ?_
    rintro e w2 (⟨rfl, he, h2, hb2⟩ | ⟨rfl, hp, hj1, h2, hb2⟩ | ⟨rfl, hlt, hp, h2, hb2⟩)
    · have hT2 := heap_but HTK.out hb2 (by have := HRB.out; omega)
      have HT2 := Lib.hid hT2
      have hB2 := below_but HBB.out hb2 (by have := HRB.out; omega)
      have HB2 := Lib.hid hB2
      obtain ⟨d1, hd1⟩ : ∃ d1, d1 = { d with qk := d.qk || decide (d.st ≠ 13) } := ⟨_, rfl⟩
      rw [← hd1] at h2
      have hfin : docL (s.data.toList.drop k) = (dT d1, s.data.toList.drop j) := by
        rw [← HEQ.out, he, drop_end s s.size (Nat.le_refl _), dG_end d HINV.out, hd1]
      have HFIN := Lib.hid hfin
      have H2 := Lib.hid h2
      clear hT2 hB2 hd1 hfin h2 hb2 he
      have t0 : w2.cell? ⟨w.heap.size, 0, none⟩ = some (.int .i64 0) := heap_cell HT2.out 0
      have f0 : w2.frozen? ⟨w.heap.size, 0, none⟩ = false := heap_frozen HT2.out 0
      have t1 : w2.cell? ⟨w.heap.size, 1, none⟩ = some (.string ⟨#[]⟩) := heap_cell HT2.out 1
      have f1 : w2.frozen? ⟨w.heap.size, 1, none⟩ = false := heap_frozen HT2.out 1
      have t2 : w2.cell? ⟨w.heap.size, 2, none⟩ = some (.bool false) := heap_cell HT2.out 2
      have f2 : w2.frozen? ⟨w.heap.size, 2, none⟩ = false := heap_frozen HT2.out 2
      have t3 : w2.cell? ⟨w.heap.size, 3, none⟩ = some (.string ⟨#[]⟩) := heap_cell HT2.out 3
      have f3 : w2.frozen? ⟨w.heap.size, 3, none⟩ = false := heap_frozen HT2.out 3
      have t4 : w2.cell? ⟨w.heap.size, 4, none⟩ = some (.bool false) := heap_cell HT2.out 4
      have f4 : w2.frozen? ⟨w.heap.size, 4, none⟩ = false := heap_frozen HT2.out 4
      have t5 : w2.cell? ⟨w.heap.size, 5, none⟩ = some (.string ⟨#[]⟩) := heap_cell HT2.out 5
      have f5 : w2.frozen? ⟨w.heap.size, 5, none⟩ = false := heap_frozen HT2.out 5
      have t6 : w2.cell? ⟨w.heap.size, 6, none⟩ = some (.bool false) := heap_cell HT2.out 6
      have f6 : w2.frozen? ⟨w.heap.size, 6, none⟩ = false := heap_frozen HT2.out 6
      have t7 : w2.cell? ⟨w.heap.size, 7, none⟩ = some (.bool false) := heap_cell HT2.out 7
      have f7 : w2.frozen? ⟨w.heap.size, 7, none⟩ = false := heap_frozen HT2.out 7
      have t8 : w2.cell? ⟨w.heap.size, 8, none⟩ = some (.slice none 0 0) := heap_cell HT2.out 8
      have f8 : w2.frozen? ⟨w.heap.size, 8, none⟩ = false := heap_frozen HT2.out 8
      have t9 : w2.cell? ⟨w.heap.size, 9, none⟩ = some (.bool false) := heap_cell HT2.out 9
      have f9 : w2.frozen? ⟨w.heap.size, 9, none⟩ = false := heap_frozen HT2.out 9
      have t10 : w2.cell? ⟨w.heap.size, 10, none⟩ = some (.string ⟨#[]⟩) := heap_cell HT2.out 10
      have f10 : w2.frozen? ⟨w.heap.size, 10, none⟩ = false := heap_frozen HT2.out 10
      have t11 : w2.cell? ⟨w.heap.size, 11, none⟩ = some (.int .i32 0) := heap_cell HT2.out 11
      have f11 : w2.frozen? ⟨w.heap.size, 11, none⟩ = false := heap_frozen HT2.out 11
      have u0 : w2.cell? ⟨rb, 4, none⟩ = some (.int .i64 1) := H2.out.cell 4
      have u1 : w2.cell? ⟨rb, 5, none⟩ = some (.string d1.name) := H2.out.cell 5
      have u2 : w2.cell? ⟨rb, 6, none⟩ = some (.bool d1.hn) := H2.out.cell 6
      have u3 : w2.cell? ⟨rb, 7, none⟩ = some (.string d1.pub) := H2.out.cell 7
      have u4 : w2.cell? ⟨rb, 8, none⟩ = some (.bool d1.hp) := H2.out.cell 8
      have u5 : w2.cell? ⟨rb, 9, none⟩ = some (.string d1.sys) := H2.out.cell 9
      have u6 : w2.cell? ⟨rb, 10, none⟩ = some (.bool d1.hs) := H2.out.cell 10
      have u7 : w2.cell? ⟨rb, 11, none⟩ = some (.bool d1.qk) := H2.out.cell 11
      have u8 : w2.cell? ⟨rb, 12, none⟩ = some (.slice none 0 0) := H2.out.cell 12
      have u9 : w2.cell? ⟨rb, 13, none⟩ = some (.bool false) := H2.out.cell 13
      have u10 : w2.cell? ⟨rb, 14, none⟩ = some (.string ⟨#[]⟩) := H2.out.cell 14
      have u11 : w2.cell? ⟨rb, 15, none⟩ = some (.int .i32 0) := H2.out.cell 15
      have uu : w2.cell? ⟨rb, 1, none⟩ = some (.int .i64 (j : Nat)) := H2.out.cell 1
      have hrb := HRB.out
      have hne : rb ≠ w.heap.size := by omega
      have hne2 : w.heap.size ≠ rb := by omega
      clear hrb
      go_wp2_with fail
      go_region
      go_wp2_with fail
      obtain ⟨w3, hw3⟩ : ∃ w3, w3 = st12 w2 w.heap.size (.int .i64 1) (.string d1.name) (.bool d1.hn) (.string d1.pub) (.bool d1.hp) (.string d1.sys) (.bool d1.hs) (.bool d1.qk) (.slice none 0 0) (.bool false) (.string ⟨#[]⟩) (.int .i32 0) := ⟨_, rfl⟩
      have hw3a := hw3
      unfold st12 at hw3a
      rw [← hw3a]
      have h3 : w3.heap[w.heap.size]? = some (.cells #[.int .i64 1, .string d1.name, .bool d1.hn, .string d1.pub, .bool d1.hp, .string d1.sys, .bool d1.hs, .bool d1.qk, .slice none 0 0, .bool false, .string ⟨#[]⟩, .int .i32 0] 40 (0, 0)) := by rw [hw3]; exact st12_heap HT2.out _ _ _ _ _ _ _ _ _ _ _ _
      have hb3 : But w.heap.size w2 w3 := by rw [hw3]; exact st12_but _ _ _ _ _ _ _ _ _ _ _ _ _ _
      clear hw3 hw3a
      have r0 : w3.drew.cell? ⟨w.heap.size, 0, none⟩ = some (.int .i64 1) := heap_cell h3 0
      have r1 : w3.drew.cell? ⟨w.heap.size, 1, none⟩ = some (.string d1.name) := heap_cell h3 1
      have r2 : w3.drew.cell? ⟨w.heap.size, 2, none⟩ = some (.bool d1.hn) := heap_cell h3 2
      have r3 : w3.drew.cell? ⟨w.heap.size, 3, none⟩ = some (.string d1.pub) := heap_cell h3 3
      have r4 : w3.drew.cell? ⟨w.heap.size, 4, none⟩ = some (.bool d1.hp) := heap_cell h3 4
      have r5 : w3.drew.cell? ⟨w.heap.size, 5, none⟩ = some (.string d1.sys) := heap_cell h3 5
      have r6 : w3.drew.cell? ⟨w.heap.size, 6, none⟩ = some (.bool d1.hs) := heap_cell h3 6
      have r7 : w3.drew.cell? ⟨w.heap.size, 7, none⟩ = some (.bool d1.qk) := heap_cell h3 7
      have r8 : w3.drew.cell? ⟨w.heap.size, 8, none⟩ = some (.slice none 0 0) := heap_cell h3 8
      have r9 : w3.drew.cell? ⟨w.heap.size, 9, none⟩ = some (.bool false) := heap_cell h3 9
      have r10 : w3.drew.cell? ⟨w.heap.size, 10, none⟩ = some (.string ⟨#[]⟩) := heap_cell h3 10
      have r11 : w3.drew.cell? ⟨w.heap.size, 11, none⟩ = some (.int .i32 0) := heap_cell h3 11
      refine bodyPost_ret (v := .tuple #[tokD d1, .int .i64 (j : Nat)]) (by simp [results, Tryz.results38, go_sem, tokD, r0, r1, r2, r3, r4, r5, r6, r7, r8, r9, r10, r11]) rfl ⟨d1, j, rfl, Below.drew (below_but HB2.out hb3 (Nat.le_refl _)), HKJ.out, HJS.out, HFIN.out⟩
    · have hT2 := heap_but HTK.out hb2 (by have := HRB.out; omega)
      have HT2 := Lib.hid hT2
      have hB2 := below_but HBB.out hb2 (by have := HRB.out; omega)
      have HB2 := Lib.hid hB2
      obtain ⟨d1, hd1⟩ : ∃ d1, d1 = { d with qk := d.qk || incB d.st } := ⟨_, rfl⟩
      rw [← hd1] at h2
      have hfin : docL (s.data.toList.drop k) = (dT d1, s.data.toList.drop (j + 1)) := by
        rw [← HEQ.out, pre_1 hp, dG_gt d HINV.out, hd1]
      have HFIN := Lib.hid hfin
      have H2 := Lib.hid h2
      have HJ1 := Lib.hid hj1
      clear hT2 hB2 hd1 hfin h2 hb2 hp hj1
      have t0 : w2.cell? ⟨w.heap.size, 0, none⟩ = some (.int .i64 0) := heap_cell HT2.out 0
      have f0 : w2.frozen? ⟨w.heap.size, 0, none⟩ = false := heap_frozen HT2.out 0
      have t1 : w2.cell? ⟨w.heap.size, 1, none⟩ = some (.string ⟨#[]⟩) := heap_cell HT2.out 1
      have f1 : w2.frozen? ⟨w.heap.size, 1, none⟩ = false := heap_frozen HT2.out 1
      have t2 : w2.cell? ⟨w.heap.size, 2, none⟩ = some (.bool false) := heap_cell HT2.out 2
      have f2 : w2.frozen? ⟨w.heap.size, 2, none⟩ = false := heap_frozen HT2.out 2
      have t3 : w2.cell? ⟨w.heap.size, 3, none⟩ = some (.string ⟨#[]⟩) := heap_cell HT2.out 3
      have f3 : w2.frozen? ⟨w.heap.size, 3, none⟩ = false := heap_frozen HT2.out 3
      have t4 : w2.cell? ⟨w.heap.size, 4, none⟩ = some (.bool false) := heap_cell HT2.out 4
      have f4 : w2.frozen? ⟨w.heap.size, 4, none⟩ = false := heap_frozen HT2.out 4
      have t5 : w2.cell? ⟨w.heap.size, 5, none⟩ = some (.string ⟨#[]⟩) := heap_cell HT2.out 5
      have f5 : w2.frozen? ⟨w.heap.size, 5, none⟩ = false := heap_frozen HT2.out 5
      have t6 : w2.cell? ⟨w.heap.size, 6, none⟩ = some (.bool false) := heap_cell HT2.out 6
      have f6 : w2.frozen? ⟨w.heap.size, 6, none⟩ = false := heap_frozen HT2.out 6
      have t7 : w2.cell? ⟨w.heap.size, 7, none⟩ = some (.bool false) := heap_cell HT2.out 7
      have f7 : w2.frozen? ⟨w.heap.size, 7, none⟩ = false := heap_frozen HT2.out 7
      have t8 : w2.cell? ⟨w.heap.size, 8, none⟩ = some (.slice none 0 0) := heap_cell HT2.out 8
      have f8 : w2.frozen? ⟨w.heap.size, 8, none⟩ = false := heap_frozen HT2.out 8
      have t9 : w2.cell? ⟨w.heap.size, 9, none⟩ = some (.bool false) := heap_cell HT2.out 9
      have f9 : w2.frozen? ⟨w.heap.size, 9, none⟩ = false := heap_frozen HT2.out 9
      have t10 : w2.cell? ⟨w.heap.size, 10, none⟩ = some (.string ⟨#[]⟩) := heap_cell HT2.out 10
      have f10 : w2.frozen? ⟨w.heap.size, 10, none⟩ = false := heap_frozen HT2.out 10
      have t11 : w2.cell? ⟨w.heap.size, 11, none⟩ = some (.int .i32 0) := heap_cell HT2.out 11
      have f11 : w2.frozen? ⟨w.heap.size, 11, none⟩ = false := heap_frozen HT2.out 11
      have u0 : w2.cell? ⟨rb, 4, none⟩ = some (.int .i64 1) := H2.out.cell 4
      have u1 : w2.cell? ⟨rb, 5, none⟩ = some (.string d1.name) := H2.out.cell 5
      have u2 : w2.cell? ⟨rb, 6, none⟩ = some (.bool d1.hn) := H2.out.cell 6
      have u3 : w2.cell? ⟨rb, 7, none⟩ = some (.string d1.pub) := H2.out.cell 7
      have u4 : w2.cell? ⟨rb, 8, none⟩ = some (.bool d1.hp) := H2.out.cell 8
      have u5 : w2.cell? ⟨rb, 9, none⟩ = some (.string d1.sys) := H2.out.cell 9
      have u6 : w2.cell? ⟨rb, 10, none⟩ = some (.bool d1.hs) := H2.out.cell 10
      have u7 : w2.cell? ⟨rb, 11, none⟩ = some (.bool d1.qk) := H2.out.cell 11
      have u8 : w2.cell? ⟨rb, 12, none⟩ = some (.slice none 0 0) := H2.out.cell 12
      have u9 : w2.cell? ⟨rb, 13, none⟩ = some (.bool false) := H2.out.cell 13
      have u10 : w2.cell? ⟨rb, 14, none⟩ = some (.string ⟨#[]⟩) := H2.out.cell 14
      have u11 : w2.cell? ⟨rb, 15, none⟩ = some (.int .i32 0) := H2.out.cell 15
      have uu : w2.cell? ⟨rb, 1, none⟩ = some (.int .i64 (j + 1 : Nat)) := H2.out.cell 1
      have hrb := HRB.out
      have hne : rb ≠ w.heap.size := by omega
      have hne2 : w.heap.size ≠ rb := by omega
      clear hrb
      go_wp2_with fail
      go_region
      go_wp2_with fail
      obtain ⟨w3, hw3⟩ : ∃ w3, w3 = st12 w2 w.heap.size (.int .i64 1) (.string d1.name) (.bool d1.hn) (.string d1.pub) (.bool d1.hp) (.string d1.sys) (.bool d1.hs) (.bool d1.qk) (.slice none 0 0) (.bool false) (.string ⟨#[]⟩) (.int .i32 0) := ⟨_, rfl⟩
      have hw3a := hw3
      unfold st12 at hw3a
      rw [← hw3a]
      have h3 : w3.heap[w.heap.size]? = some (.cells #[.int .i64 1, .string d1.name, .bool d1.hn, .string d1.pub, .bool d1.hp, .string d1.sys, .bool d1.hs, .bool d1.qk, .slice none 0 0, .bool false, .string ⟨#[]⟩, .int .i32 0] 40 (0, 0)) := by rw [hw3]; exact st12_heap HT2.out _ _ _ _ _ _ _ _ _ _ _ _
      have hb3 : But w.heap.size w2 w3 := by rw [hw3]; exact st12_but _ _ _ _ _ _ _ _ _ _ _ _ _ _
      clear hw3 hw3a
      have r0 : w3.drew.cell? ⟨w.heap.size, 0, none⟩ = some (.int .i64 1) := heap_cell h3 0
      have r1 : w3.drew.cell? ⟨w.heap.size, 1, none⟩ = some (.string d1.name) := heap_cell h3 1
      have r2 : w3.drew.cell? ⟨w.heap.size, 2, none⟩ = some (.bool d1.hn) := heap_cell h3 2
      have r3 : w3.drew.cell? ⟨w.heap.size, 3, none⟩ = some (.string d1.pub) := heap_cell h3 3
      have r4 : w3.drew.cell? ⟨w.heap.size, 4, none⟩ = some (.bool d1.hp) := heap_cell h3 4
      have r5 : w3.drew.cell? ⟨w.heap.size, 5, none⟩ = some (.string d1.sys) := heap_cell h3 5
      have r6 : w3.drew.cell? ⟨w.heap.size, 6, none⟩ = some (.bool d1.hs) := heap_cell h3 6
      have r7 : w3.drew.cell? ⟨w.heap.size, 7, none⟩ = some (.bool d1.qk) := heap_cell h3 7
      have r8 : w3.drew.cell? ⟨w.heap.size, 8, none⟩ = some (.slice none 0 0) := heap_cell h3 8
      have r9 : w3.drew.cell? ⟨w.heap.size, 9, none⟩ = some (.bool false) := heap_cell h3 9
      have r10 : w3.drew.cell? ⟨w.heap.size, 10, none⟩ = some (.string ⟨#[]⟩) := heap_cell h3 10
      have r11 : w3.drew.cell? ⟨w.heap.size, 11, none⟩ = some (.int .i32 0) := heap_cell h3 11
      refine bodyPost_ret (v := .tuple #[tokD d1, .int .i64 (j + 1 : Nat)]) (by simp [results, Tryz.results38, go_sem, tokD, r0, r1, r2, r3, r4, r5, r6, r7, r8, r9, r10, r11]) rfl ⟨d1, j + 1, rfl, Below.drew (below_but HB2.out hb3 (Nat.le_refl _)), Nat.le_succ_of_le HKJ.out, HJ1.out, HFIN.out⟩
    · have hT2 := heap_but HTK.out hb2 (by have := HRB.out; omega)
      have hB2 := below_but HBB.out hb2 (by have := HRB.out; omega)
      have hm2 := carry HM.out hB2
      have HST := Lib.hid (dStep rb s j d HINV.out hlt hp HS.out m w2 hm2 h2)
      have HT2 := Lib.hid hT2
      have HB2 := Lib.hid hB2
      clear hT2 hB2 hm2 h2 hb2 hlt hp
      go_wp2_with fail
      refine HST.out.mono ?_
      rintro e w3 ⟨rfl, hb3, j', d', h3, hinv, hjj, hjs, heq, hlt⟩
      have hT3 := heap_but HT2.out hb3 (by have := HRB.out; omega)
      have hB3 := below_but HB2.out hb3 (by have := HRB.out; omega)
      have HE2 := Lib.hid (heq.trans HEQ.out)
      have hkj' : k ≤ j' := Nat.le_trans HKJ.out hjj
      have hmes : 20 * (s.size - j') + dRk d'.st < gk := by rw [HGN.out]; exact hlt
      clear heq
      go_wp2_with fail
      go_roundg (20 * (s.size - j') + dRk d'.st)
      case measure => exact hmes
      case rel => exact ⟨j', d', rfl, hkj', hjs, hinv, HE2.out, h3, hT3, hB3⟩
end Go.Proofs.YtofiaodpjpjedaaGreatDoor
