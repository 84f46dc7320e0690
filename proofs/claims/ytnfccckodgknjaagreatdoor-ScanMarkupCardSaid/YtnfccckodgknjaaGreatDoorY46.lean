/-
  Document type declarations: a step, whatever the state.
  Doctype.
  Lists of attributes and tokens that hold the same are the same to the document.
  Tokens as lists of bytes: what a tag, a declaration and markup come to; the program's readers of tags and declarations say so.
  The document's look at a list of attributes: is a name among them?
-/
import Derived.Test.YtnfccckodgknjaaGreatDoorY45
import Derived.Test.YtnfccckodgknjaaGreatDoorY43
import Derived.Test.YtnfccckodgknjaaGreatDoorY44
import Derived.Test.YtnfccckodgknjaaGreatDoorY42
import Derived.Test.YtnfccckodgknjaaGreatDoorY41
import Derived.Test.YtnfccckodgknjaaGreatDoorY40
import Derived.Test.YtnfccckodgknjaaGreatDoorY30
namespace Go.Proofs.YtnfccckodgknjaaGreatDoor
open Go.RowKit Go.Shelf Go.Lib
set_option maxHeartbeats 4000000
set_option maxRecDepth 100000

theorem dStep (b : Nat) (s : ByteArray) (j : Nat) (d : Dt) (hi : DInv d) (hj : j < s.size) (h62 : [62].isPrefixOf (s.data.toList.drop j) = false) (hs : s.size ≤ 1000000) (m : Int) (w : World) (hm : w.cell? ⟨1, 0, none⟩ = some (.int .i64 m)) (h : DAt w b s j d) :
    Calls Tryz.prog 66 #[.pointer (some ⟨b, 0, none⟩)] w (StepP b s j d w) := by
  have hst := hi.st
  obtain ⟨st, q, name, hn, pub, hp, sys, hsy, qk⟩ := d
  have hcase : st = 0 ∨ st = 1 ∨ st = 2 ∨ st = 3 ∨ st = 4 ∨ st = 5 ∨ st = 6 ∨ st = 7 ∨ st = 8 ∨ st = 9 ∨ st = 10 ∨ st = 11 ∨ st = 12 ∨ st = 13 := by simp only at hst; omega
  clear hst
  rcases hcase with rfl | rfl | rfl | rfl | rfl | rfl | rfl | rfl | rfl | rfl | rfl | rfl | rfl | rfl
  · exact dStep0 b s j q name hn pub hp sys hsy qk hi hj h62 hs m w hm h
  · exact dStep1 b s j q name hn pub hp sys hsy qk hi hj h62 hs m w hm h
  · exact dStep2 b s j q name hn pub hp sys hsy qk hi hj h62 hs m w hm h
  · exact dStep3 b s j q name hn pub hp sys hsy qk hi hj h62 hs m w hm h
  · exact dStep4 b s j q name hn pub hp sys hsy qk hi hj h62 hs m w hm h
  · exact dStep5 b s j q name hn pub hp sys hsy qk hi hj h62 hs m w hm h
  · exact dStep6 b s j q name hn pub hp sys hsy qk hi hj h62 hs m w hm h
  · exact dStep7 b s j q name hn pub hp sys hsy qk hi hj h62 hs m w hm h
  · exact dStep8 b s j q name hn pub hp sys hsy qk hi hj h62 hs m w hm h
  · exact dStep9 b s j q name hn pub hp sys hsy qk hi hj h62 hs m w hm h
  · exact dStep10 b s j q name hn pub hp sys hsy qk hi hj h62 hs m w hm h
  · exact dStep11 b s j q name hn pub hp sys hsy qk hi hj h62 hs m w hm h
  · exact dStep12 b s j q name hn pub hp sys hsy qk hi hj h62 hs m w hm h
  · exact dStep13 b s j q name hn pub hp sys hsy qk hi hj h62 hs m w hm h
end Go.Proofs.YtnfccckodgknjaaGreatDoor

namespace Go.Proofs.YtnfccckodgknjaaGreatDoor
open Go.RowKit Go.Shelf Go.Lib
set_option maxHeartbeats 4000000
set_option maxRecDepth 100000

/-- The token of a declaration. -/
def tokD (d : Dt) : Value := .agg #[.int .i64 1, .string d.name, .bool d.hn, .string d.pub, .bool d.hp, .string d.sys, .bool d.hs, .bool d.qk, .slice none 0 0, .bool false, .string ⟨#[]⟩, .int .i32 0]
def d00 : Dt := ⟨0, ⟨#[]⟩, ⟨#[]⟩, false, ⟨#[]⟩, false, ⟨#[]⟩, false, false⟩
theorem d00_inv : DInv d00 := ⟨by simp [d00], fun h => by simp [d00] at h, fun _ => rfl, fun _ => rfl, fun _ => rfl, fun h => by simp [d00] at h⟩
theorem d00_docL (u : List UInt8) : dG d00 u = docL u := rfl
/-- What Doctype returns. -/
def DocP (s : ByteArray) (a : Int) (w : World) (e : Ending) (w' : World) : Prop :=
  ∃ (d : Dt) (j : Nat), e = .returned (.tuple #[tokD d, .int .i64 (j : Nat)]) ∧ Below w.heap.size w w' ∧ clip s a ≤ j ∧ j ≤ s.size ∧ docL (tlS s a) = (dT d, s.data.toList.drop j)

theorem doctypeC (s : ByteArray) (a : Int) (m : Int) (hs : s.size ≤ 1000000) (w : World) (hm : w.cell? ⟨1, 0, none⟩ = some (.int .i64 m)) :
    Calls Tryz.prog 20 #[.string s, .int .i64 a] w (DocP s a w) := by
  have HC := Lib.hid (fun W => cursorAt s a (by unfold maxLen; omega) W)
  have HM := Lib.hid hm
  have hk := clip_le s a
  unfold DocP tlS
  generalize clip s a = k at HC hk ⊢
  have HK := Lib.hid hk
  have HS := Lib.hid hs
  clear hm hk hs
  go_enter Tryz.func20, Tryz.ntmps20
  go_wp2_with fail
  obtain ⟨w0, hw0⟩ : ∃ w0, w0 = w.alloc (.cells #[.int .i64 0, .string ⟨#[]⟩, .bool false, .string ⟨#[]⟩, .bool false, .string ⟨#[]⟩, .bool false, .bool false, .slice none 0 0, .bool false, .string ⟨#[]⟩, .int .i32 0] 38) := ⟨_, rfl⟩
  rw [← hw0]
  have hb0 : Below w.heap.size w w0 := by rw [hw0]; exact below_alloc (Below.refl _ _) _
  have ht0 : w0.heap[w.heap.size]? = some (.cells #[.int .i64 0, .string ⟨#[]⟩, .bool false, .string ⟨#[]⟩, .bool false, .string ⟨#[]⟩, .bool false, .bool false, .slice none 0 0, .bool false, .string ⟨#[]⟩, .int .i32 0] 38 (0, 0)) := by
    rw [hw0]; show (w.heap.push _)[w.heap.size]? = _; exact Array.getElem?_push_size
  clear hw0
  refine (HC.out w0).mono ?_
  rintro e w1 ⟨rfl, hb1⟩
  have ht1 := heap_below ht0 hb1
  replace hb1 := below_next hb0 hb1
  clear ht0 hb0
  go_wp2_with fail
  obtain ⟨w2, hw2⟩ : ∃ w2, w2 = w1.alloc (.cells #[.string s, .int .i64 k, .int .i64 0, .string ⟨#[]⟩, .int .i64 1, .string ⟨#[]⟩, .bool false, .string ⟨#[]⟩, .bool false, .string ⟨#[]⟩, .bool false, .bool false, .slice none 0 0, .bool false, .string ⟨#[]⟩, .int .i32 0] 86) := ⟨_, rfl⟩
  rw [← hw2]
  have hD : DAt w2 w1.heap.size s k d00 := by rw [hw2]; show (w1.heap.push _)[w1.heap.size]? = _; exact Array.getElem?_push_size
  have hB2 : Below w.heap.size w w2 := by rw [hw2]; exact below_alloc hb1 _
  have hT2 : w2.heap[w.heap.size]? = some (.cells #[.int .i64 0, .string ⟨#[]⟩, .bool false, .string ⟨#[]⟩, .bool false, .string ⟨#[]⟩, .bool false, .bool false, .slice none 0 0, .bool false, .string ⟨#[]⟩, .int .i32 0] 38 (0, 0)) := by
    rw [hw2]; exact heap_below ht1 (below_alloc (Below.refl _ _) _)
  have hrb : w.heap.size < w1.heap.size := (Array.getElem?_eq_some_iff.1 ht1).1
  have HRB := Lib.hid hrb
  clear hw2 ht1 hb1 hrb
  generalize w1.heap.size = rb at hD HRB ⊢
  go_wp2_with fail
  go_loopg [] (20 * (s.size - k) + dRk 0) (fun gn wr => ∃ (j : Nat) (d : Dt), gn = 20 * (s.size - j) + dRk d.st ∧ k ≤ j ∧ j ≤ s.size ∧ DInv d ∧ dG d (s.data.toList.drop j) = docL (s.data.toList.drop k) ∧ DAt wr rb s j d ∧ wr.heap[w.heap.size]? = some (.cells #[.int .i64 0, .string ⟨#[]⟩, .bool false, .string ⟨#[]⟩, .bool false, .string ⟨#[]⟩, .bool false, .bool false, .slice none 0 0, .bool false, .string ⟨#[]⟩, .int .i32 0] 38 (0, 0)) ∧ Below w.heap.size w wr)
  case atStart => exact ⟨k, d00, rfl, Nat.le_refl _, HK.out, d00_inv, d00_docL _, hD, hT2, hB2⟩
  case round =>
    obtain ⟨j, d, hgn, hkj, hjs, hinv, heq, hat, htk, hbb⟩ := hrel
    have HF := Lib.hid (dFinished rb s j d hinv.st hjs (by have := HS.out; omega) wr hat)
    have HGN := Lib.hid hgn
    have HKJ := Lib.hid hkj
    have HJS := Lib.hid hjs
    have HINV := Lib.hid hinv
    have HEQ := Lib.hid heq
    have HTK := Lib.hid htk
    have HBB := Lib.hid hbb
    clear hgn hkj hjs hinv heq hat htk hbb hD hT2 hB2
    go_wp2_with fail
    refine HF.out.mono ?_
    rintro e w2 (⟨rfl, he, h2, hb2⟩ | ⟨rfl, hp, hj1, h2, hb2⟩ | ⟨rfl, hlt, hp, h2, hb2⟩)
    · have hT2 := heap_but HTK.out hb2 (by have := HRB.out; omega)
      have HT2 := Lib.hid hT2
      have hB2 := below_but HBB.out hb2 (by have := HRB.out; omega)
      have HB2 := Lib.hid hB2
      obtain ⟨d1, hd1⟩ : ∃ d1, d1 = { d with qk := d.qk || decide (d.st ≠ 13) } := ⟨_, rfl⟩
      rw [← hd1] at h2
      have hfin : docL (s.data.toList.drop k) = (dT d1, s.data.toList.drop j) := by
        rw [← HEQ.out, he, drop_end s s.size (Nat.le_refl _), dG_end d HINV.out, hd1]
      have HFIN := Lib.hid hfin
      have H2 := Lib.hid h2
      clear hT2 hB2 hd1 hfin h2 hb2 he
      have t0 : w2.cell? ⟨w.heap.size, 0, none⟩ = some (.int .i64 0) := heap_cell HT2.out 0
      have f0 : w2.frozen? ⟨w.heap.size, 0, none⟩ = false := heap_frozen HT2.out 0
      have t1 : w2.cell? ⟨w.heap.size, 1, none⟩ = some (.string ⟨#[]⟩) := heap_cell HT2.out 1
      have f1 : w2.frozen? ⟨w.heap.size, 1, none⟩ = false := heap_frozen HT2.out 1
      have t2 : w2.cell? ⟨w.heap.size, 2, none⟩ = some (.bool false) := heap_cell HT2.out 2
      have f2 : w2.frozen? ⟨w.heap.size, 2, none⟩ = false := heap_frozen HT2.out 2
      have t3 : w2.cell? ⟨w.heap.size, 3, none⟩ = some (.string ⟨#[]⟩) := heap_cell HT2.out 3
      have f3 : w2.frozen? ⟨w.heap.size, 3, none⟩ = false := heap_frozen HT2.out 3
      have t4 : w2.cell? ⟨w.heap.size, 4, none⟩ = some (.bool false) := heap_cell HT2.out 4
      have f4 : w2.frozen? ⟨w.heap.size, 4, none⟩ = false := heap_frozen HT2.out 4
      have t5 : w2.cell? ⟨w.heap.size, 5, none⟩ = some (.string ⟨#[]⟩) := heap_cell HT2.out 5
      have f5 : w2.frozen? ⟨w.heap.size, 5, none⟩ = false := heap_frozen HT2.out 5
      have t6 : w2.cell? ⟨w.heap.size, 6, none⟩ = some (.bool false) := heap_cell HT2.out 6
      have f6 : w2.frozen? ⟨w.heap.size, 6, none⟩ = false := heap_frozen HT2.out 6
      have t7 : w2.cell? ⟨w.heap.size, 7, none⟩ = some (.bool false) := heap_cell HT2.out 7
      have f7 : w2.frozen? ⟨w.heap.size, 7, none⟩ = false := heap_frozen HT2.out 7
      have t8 : w2.cell? ⟨w.heap.size, 8, none⟩ = some (.slice none 0 0) := heap_cell HT2.out 8
      have f8 : w2.frozen? ⟨w.heap.size, 8, none⟩ = false := heap_frozen HT2.out 8
      have t9 : w2.cell? ⟨w.heap.size, 9, none⟩ = some (.bool false) := heap_cell HT2.out 9
      have f9 : w2.frozen? ⟨w.heap.size, 9, none⟩ = false := heap_frozen HT2.out 9
      have t10 : w2.cell? ⟨w.heap.size, 10, none⟩ = some (.string ⟨#[]⟩) := heap_cell HT2.out 10
      have f10 : w2.frozen? ⟨w.heap.size, 10, none⟩ = false := heap_frozen HT2.out 10
      have t11 : w2.cell? ⟨w.heap.size, 11, none⟩ = some (.int .i32 0) := heap_cell HT2.out 11
      have f11 : w2.frozen? ⟨w.heap.size, 11, none⟩ = false := heap_frozen HT2.out 11
      have u0 : w2.cell? ⟨rb, 4, none⟩ = some (.int .i64 1) := H2.out.cell 4
      have u1 : w2.cell? ⟨rb, 5, none⟩ = some (.string d1.name) := H2.out.cell 5
      have u2 : w2.cell? ⟨rb, 6, none⟩ = some (.bool d1.hn) := H2.out.cell 6
      have u3 : w2.cell? ⟨rb, 7, none⟩ = some (.string d1.pub) := H2.out.cell 7
      have u4 : w2.cell? ⟨rb, 8, none⟩ = some (.bool d1.hp) := H2.out.cell 8
      have u5 : w2.cell? ⟨rb, 9, none⟩ = some (.string d1.sys) := H2.out.cell 9
      have u6 : w2.cell? ⟨rb, 10, none⟩ = some (.bool d1.hs) := H2.out.cell 10
      have u7 : w2.cell? ⟨rb, 11, none⟩ = some (.bool d1.qk) := H2.out.cell 11
      have u8 : w2.cell? ⟨rb, 12, none⟩ = some (.slice none 0 0) := H2.out.cell 12
      have u9 : w2.cell? ⟨rb, 13, none⟩ = some (.bool false) := H2.out.cell 13
      have u10 : w2.cell? ⟨rb, 14, none⟩ = some (.string ⟨#[]⟩) := H2.out.cell 14
      have u11 : w2.cell? ⟨rb, 15, none⟩ = some (.int .i32 0) := H2.out.cell 15
      have uu : w2.cell? ⟨rb, 1, none⟩ = some (.int .i64 (j : Nat)) := H2.out.cell 1
      have hrb := HRB.out
      have hne : rb ≠ w.heap.size := by omega
      have hne2 : w.heap.size ≠ rb := by omega
      clear hrb
      go_wp2_with fail
      go_region
      go_wp2_with fail
      obtain ⟨w3, hw3⟩ : ∃ w3, w3 = st12 w2 w.heap.size (.int .i64 1) (.string d1.name) (.bool d1.hn) (.string d1.pub) (.bool d1.hp) (.string d1.sys) (.bool d1.hs) (.bool d1.qk) (.slice none 0 0) (.bool false) (.string ⟨#[]⟩) (.int .i32 0) := ⟨_, rfl⟩
      have hw3a := hw3
      unfold st12 at hw3a
      rw [← hw3a]
      have h3 : w3.heap[w.heap.size]? = some (.cells #[.int .i64 1, .string d1.name, .bool d1.hn, .string d1.pub, .bool d1.hp, .string d1.sys, .bool d1.hs, .bool d1.qk, .slice none 0 0, .bool false, .string ⟨#[]⟩, .int .i32 0] 38 (0, 0)) := by rw [hw3]; exact st12_heap HT2.out _ _ _ _ _ _ _ _ _ _ _ _
      have hb3 : But w.heap.size w2 w3 := by rw [hw3]; exact st12_but _ _ _ _ _ _ _ _ _ _ _ _ _ _
      clear hw3 hw3a
      have r0 : w3.drew.cell? ⟨w.heap.size, 0, none⟩ = some (.int .i64 1) := heap_cell h3 0
      have r1 : w3.drew.cell? ⟨w.heap.size, 1, none⟩ = some (.string d1.name) := heap_cell h3 1
      have r2 : w3.drew.cell? ⟨w.heap.size, 2, none⟩ = some (.bool d1.hn) := heap_cell h3 2
      have r3 : w3.drew.cell? ⟨w.heap.size, 3, none⟩ = some (.string d1.pub) := heap_cell h3 3
      have r4 : w3.drew.cell? ⟨w.heap.size, 4, none⟩ = some (.bool d1.hp) := heap_cell h3 4
      have r5 : w3.drew.cell? ⟨w.heap.size, 5, none⟩ = some (.string d1.sys) := heap_cell h3 5
      have r6 : w3.drew.cell? ⟨w.heap.size, 6, none⟩ = some (.bool d1.hs) := heap_cell h3 6
      have r7 : w3.drew.cell? ⟨w.heap.size, 7, none⟩ = some (.bool d1.qk) := heap_cell h3 7
      have r8 : w3.drew.cell? ⟨w.heap.size, 8, none⟩ = some (.slice none 0 0) := heap_cell h3 8
      have r9 : w3.drew.cell? ⟨w.heap.size, 9, none⟩ = some (.bool false) := heap_cell h3 9
      have r10 : w3.drew.cell? ⟨w.heap.size, 10, none⟩ = some (.string ⟨#[]⟩) := heap_cell h3 10
      have r11 : w3.drew.cell? ⟨w.heap.size, 11, none⟩ = some (.int .i32 0) := heap_cell h3 11
      refine bodyPost_ret (v := .tuple #[tokD d1, .int .i64 (j : Nat)]) (by simp [results, Tryz.results20, go_sem, tokD, r0, r1, r2, r3, r4, r5, r6, r7, r8, r9, r10, r11]) rfl ⟨d1, j, rfl, Below.drew (below_but HB2.out hb3 (Nat.le_refl _)), HKJ.out, HJS.out, HFIN.out⟩
    · have hT2 := heap_but HTK.out hb2 (by have := HRB.out; omega)
      have HT2 := Lib.hid hT2
      have hB2 := below_but HBB.out hb2 (by have := HRB.out; omega)
      have HB2 := Lib.hid hB2
      obtain ⟨d1, hd1⟩ : ∃ d1, d1 = { d with qk := d.qk || incB d.st } := ⟨_, rfl⟩
      rw [← hd1] at h2
      have hfin : docL (s.data.toList.drop k) = (dT d1, s.data.toList.drop (j + 1)) := by
        rw [← HEQ.out, pre_1 hp, dG_gt d HINV.out, hd1]
      have HFIN := Lib.hid hfin
      have H2 := Lib.hid h2
      have HJ1 := Lib.hid hj1
      clear hT2 hB2 hd1 hfin h2 hb2 hp hj1
      have t0 : w2.cell? ⟨w.heap.size, 0, none⟩ = some (.int .i64 0) := heap_cell HT2.out 0
      have f0 : w2.frozen? ⟨w.heap.size, 0, none⟩ = false := heap_frozen HT2.out 0
      have t1 : w2.cell? ⟨w.heap.size, 1, none⟩ = some (.string ⟨#[]⟩) := heap_cell HT2.out 1
      have f1 : w2.frozen? ⟨w.heap.size, 1, none⟩ = false := heap_frozen HT2.out 1
      have t2 : w2.cell? ⟨w.heap.size, 2, none⟩ = some (.bool false) := heap_cell HT2.out 2
      have f2 : w2.frozen? ⟨w.heap.size, 2, none⟩ = false := heap_frozen HT2.out 2
      have t3 : w2.cell? ⟨w.heap.size, 3, none⟩ = some (.string ⟨#[]⟩) := heap_cell HT2.out 3
      have f3 : w2.frozen? ⟨w.heap.size, 3, none⟩ = false := heap_frozen HT2.out 3
      have t4 : w2.cell? ⟨w.heap.size, 4, none⟩ = some (.bool false) := heap_cell HT2.out 4
      have f4 : w2.frozen? ⟨w.heap.size, 4, none⟩ = false := heap_frozen HT2.out 4
      have t5 : w2.cell? ⟨w.heap.size, 5, none⟩ = some (.string ⟨#[]⟩) := heap_cell HT2.out 5
      have f5 : w2.frozen? ⟨w.heap.size, 5, none⟩ = false := heap_frozen HT2.out 5
      have t6 : w2.cell? ⟨w.heap.size, 6, none⟩ = some (.bool false) := heap_cell HT2.out 6
      have f6 : w2.frozen? ⟨w.heap.size, 6, none⟩ = false := heap_frozen HT2.out 6
      have t7 : w2.cell? ⟨w.heap.size, 7, none⟩ = some (.bool false) := heap_cell HT2.out 7
      have f7 : w2.frozen? ⟨w.heap.size, 7, none⟩ = false := heap_frozen HT2.out 7
      have t8 : w2.cell? ⟨w.heap.size, 8, none⟩ = some (.slice none 0 0) := heap_cell HT2.out 8
      have f8 : w2.frozen? ⟨w.heap.size, 8, none⟩ = false := heap_frozen HT2.out 8
      have t9 : w2.cell? ⟨w.heap.size, 9, none⟩ = some (.bool false) := heap_cell HT2.out 9
      have f9 : w2.frozen? ⟨w.heap.size, 9, none⟩ = false := heap_frozen HT2.out 9
      have t10 : w2.cell? ⟨w.heap.size, 10, none⟩ = some (.string ⟨#[]⟩) := heap_cell HT2.out 10
      have f10 : w2.frozen? ⟨w.heap.size, 10, none⟩ = false := heap_frozen HT2.out 10
      have t11 : w2.cell? ⟨w.heap.size, 11, none⟩ = some (.int .i32 0) := heap_cell HT2.out 11
      have f11 : w2.frozen? ⟨w.heap.size, 11, none⟩ = false := heap_frozen HT2.out 11
      have u0 : w2.cell? ⟨rb, 4, none⟩ = some (.int .i64 1) := H2.out.cell 4
      have u1 : w2.cell? ⟨rb, 5, none⟩ = some (.string d1.name) := H2.out.cell 5
      have u2 : w2.cell? ⟨rb, 6, none⟩ = some (.bool d1.hn) := H2.out.cell 6
      have u3 : w2.cell? ⟨rb, 7, none⟩ = some (.string d1.pub) := H2.out.cell 7
      have u4 : w2.cell? ⟨rb, 8, none⟩ = some (.bool d1.hp) := H2.out.cell 8
      have u5 : w2.cell? ⟨rb, 9, none⟩ = some (.string d1.sys) := H2.out.cell 9
      have u6 : w2.cell? ⟨rb, 10, none⟩ = some (.bool d1.hs) := H2.out.cell 10
      have u7 : w2.cell? ⟨rb, 11, none⟩ = some (.bool d1.qk) := H2.out.cell 11
      have u8 : w2.cell? ⟨rb, 12, none⟩ = some (.slice none 0 0) := H2.out.cell 12
      have u9 : w2.cell? ⟨rb, 13, none⟩ = some (.bool false) := H2.out.cell 13
      have u10 : w2.cell? ⟨rb, 14, none⟩ = some (.string ⟨#[]⟩) := H2.out.cell 14
      have u11 : w2.cell? ⟨rb, 15, none⟩ = some (.int .i32 0) := H2.out.cell 15
      have uu : w2.cell? ⟨rb, 1, none⟩ = some (.int .i64 (j + 1 : Nat)) := H2.out.cell 1
      have hrb := HRB.out
      have hne : rb ≠ w.heap.size := by omega
      have hne2 : w.heap.size ≠ rb := by omega
      clear hrb
      go_wp2_with fail
      go_region
      go_wp2_with fail
      obtain ⟨w3, hw3⟩ : ∃ w3, w3 = st12 w2 w.heap.size (.int .i64 1) (.string d1.name) (.bool d1.hn) (.string d1.pub) (.bool d1.hp) (.string d1.sys) (.bool d1.hs) (.bool d1.qk) (.slice none 0 0) (.bool false) (.string ⟨#[]⟩) (.int .i32 0) := ⟨_, rfl⟩
      have hw3a := hw3
      unfold st12 at hw3a
      rw [← hw3a]
      have h3 : w3.heap[w.heap.size]? = some (.cells #[.int .i64 1, .string d1.name, .bool d1.hn, .string d1.pub, .bool d1.hp, .string d1.sys, .bool d1.hs, .bool d1.qk, .slice none 0 0, .bool false, .string ⟨#[]⟩, .int .i32 0] 38 (0, 0)) := by rw [hw3]; exact st12_heap HT2.out _ _ _ _ _ _ _ _ _ _ _ _
      have hb3 : But w.heap.size w2 w3 := by rw [hw3]; exact st12_but _ _ _ _ _ _ _ _ _ _ _ _ _ _
      clear hw3 hw3a
      have r0 : w3.drew.cell? ⟨w.heap.size, 0, none⟩ = some (.int .i64 1) := heap_cell h3 0
      have r1 : w3.drew.cell? ⟨w.heap.size, 1, none⟩ = some (.string d1.name) := heap_cell h3 1
      have r2 : w3.drew.cell? ⟨w.heap.size, 2, none⟩ = some (.bool d1.hn) := heap_cell h3 2
      have r3 : w3.drew.cell? ⟨w.heap.size, 3, none⟩ = some (.string d1.pub) := heap_cell h3 3
      have r4 : w3.drew.cell? ⟨w.heap.size, 4, none⟩ = some (.bool d1.hp) := heap_cell h3 4
      have r5 : w3.drew.cell? ⟨w.heap.size, 5, none⟩ = some (.string d1.sys) := heap_cell h3 5
      have r6 : w3.drew.cell? ⟨w.heap.size, 6, none⟩ = some (.bool d1.hs) := heap_cell h3 6
      have r7 : w3.drew.cell? ⟨w.heap.size, 7, none⟩ = some (.bool d1.qk) := heap_cell h3 7
      have r8 : w3.drew.cell? ⟨w.heap.size, 8, none⟩ = some (.slice none 0 0) := heap_cell h3 8
      have r9 : w3.drew.cell? ⟨w.heap.size, 9, none⟩ = some (.bool false) := heap_cell h3 9
      have r10 : w3.drew.cell? ⟨w.heap.size, 10, none⟩ = some (.string ⟨#[]⟩) := heap_cell h3 10
      have r11 : w3.drew.cell? ⟨w.heap.size, 11, none⟩ = some (.int .i32 0) := heap_cell h3 11
      refine bodyPost_ret (v := .tuple #[tokD d1, .int .i64 (j + 1 : Nat)]) (by simp [results, Tryz.results20, go_sem, tokD, r0, r1, r2, r3, r4, r5, r6, r7, r8, r9, r10, r11]) rfl ⟨d1, j + 1, rfl, Below.drew (below_but HB2.out hb3 (Nat.le_refl _)), Nat.le_succ_of_le HKJ.out, HJ1.out, HFIN.out⟩
    · have hT2 := heap_but HTK.out hb2 (by have := HRB.out; omega)
      have hB2 := below_but HBB.out hb2 (by have := HRB.out; omega)
      have hm2 := carry HM.out hB2
      have HST := Lib.hid (dStep rb s j d HINV.out hlt hp HS.out m w2 hm2 h2)
      have HT2 := Lib.hid hT2
      have HB2 := Lib.hid hB2
      clear hT2 hB2 hm2 h2 hb2 hlt hp
      go_wp2_with fail
      refine HST.out.mono ?_
      rintro e w3 ⟨rfl, hb3, j', d', h3, hinv, hjj, hjs, heq, hlt⟩
      have hT3 := heap_but HT2.out hb3 (by have := HRB.out; omega)
      have hB3 := below_but HB2.out hb3 (by have := HRB.out; omega)
      have HE2 := Lib.hid (heq.trans HEQ.out)
      have hkj' : k ≤ j' := Nat.le_trans HKJ.out hjj
      have hmes : 20 * (s.size - j') + dRk d'.st < gk := by rw [HGN.out]; exact hlt
      clear heq
      go_wp2_with fail
      go_roundg (20 * (s.size - j') + dRk d'.st)
      case measure => exact hmes
      case rel => exact ⟨j', d', rfl, hkj', hjs, hinv, HE2.out, h3, hT3, hB3⟩
end Go.Proofs.YtnfccckodgknjaaGreatDoor

namespace Go.Proofs.YtnfccckodgknjaaGreatDoor
open Go.RowKit Go.Shelf Go.Lib
set_option maxHeartbeats 4000000
set_option maxRecDepth 100000

/-- v is a list of these attributes. -/
def AttrRow (w : World) (v : Value) (acc : AttL) : Prop :=
  ∃ (A : Option Addr) (cap : Nat), v = .slice A acc.length cap ∧ ∀ i (h : i < acc.length), ∃ g, A = some ⟨g, 0, none⟩ ∧ g < w.heap.size ∧ w.cell? ⟨g, i * 3, none⟩ = some (.int .i64 0) ∧ w.cell? ⟨g, i * 3 + 1, none⟩ = some (.string (bl (acc[i]'h).1)) ∧ w.cell? ⟨g, i * 3 + 2, none⟩ = some (.string (bl (acc[i]'h).2))
theorem AttrRow.below {w w' : World} {v : Value} {acc : AttL} (h : AttrRow w v acc) (hb : Below w.heap.size w w') : AttrRow w' v acc := by
  obtain ⟨A, cap, rfl, hc⟩ := h
  refine ⟨A, cap, rfl, fun i hi => ?_⟩
  obtain ⟨g, hA, hg, c0, c1, c2⟩ := hc i hi
  exact ⟨g, hA, Nat.lt_of_lt_of_le hg hb.size, (hb.cell (p := ⟨g, i * 3, none⟩) hg).trans c0, (hb.cell (p := ⟨g, i * 3 + 1, none⟩) hg).trans c1, (hb.cell (p := ⟨g, i * 3 + 2, none⟩) hg).trans c2⟩
theorem attrRow_nil (w : World) : AttrRow w (.slice none 0 0) [] := ⟨none, 0, rfl, fun i h => absurd h (Nat.not_lt_zero i)⟩
theorem attrCells_at : ∀ (acc : AttL) (i : Nat) (h : i < acc.length), (attrCells acc)[i * 3]? = some (.int .i64 0) ∧ (attrCells acc)[i * 3 + 1]? = some (.string (bl (acc[i]'h).1)) ∧ (attrCells acc)[i * 3 + 2]? = some (.string (bl (acc[i]'h).2))
  | [], i, h => absurd h (Nat.not_lt_zero i)
  | a :: t, 0, _ => ⟨rfl, rfl, rfl⟩
  | a :: t, i + 1, h => by
    have ih := attrCells_at t i (by simpa using h)
    have e : attrCells (a :: t) = [.int .i64 0, .string (bl a.1), .string (bl a.2)] ++ attrCells t := rfl
    rw [e, show (i + 1) * 3 = i * 3 + 3 by omega]
    refine ⟨?_, ?_, ?_⟩
    · rw [List.getElem?_append_right (by simp)]
      simpa using ih.1
    · rw [List.getElem?_append_right (by simp)]
      simpa using ih.2.1
    · rw [List.getElem?_append_right (by simp)]
      simpa using ih.2.2
theorem addr_add (g k : Nat) : (⟨g, 0, none⟩ : Addr).add k = ⟨g, k, none⟩ := by
  by_cases h : k = 0
  · subst h; simp [Addr.add]
  · simp [Addr.add, h]
theorem attrRow_of {w : World} {B : Nat} {v : Value} {acc : AttL} (h : w.ownsRow B 31 3 v acc.length (attrCells acc)) : AttrRow w v acc := by
  have h2 := h.2
  rcases h2 with ⟨hv, h0⟩ | ⟨g, cap, cur, hv, _, hh, _⟩
  · have : acc = [] := List.length_eq_zero_iff.1 h0
    subst this
    rw [hv]
    exact attrRow_nil w
  · refine ⟨some ⟨g, 0, none⟩, cap, hv, fun i hi => ⟨g, rfl, ?_, ?_, ?_, ?_⟩⟩
    · exact (Array.getElem?_eq_some_iff.1 hh).1
    · have e := h.cells (by rw [hv]; rfl) _ _ (attrCells_at acc i hi).1
      rwa [addr_add] at e
    · have e := h.cells (by rw [hv]; rfl) _ _ (attrCells_at acc i hi).2.1
      rwa [addr_add] at e
    · have e := h.cells (by rw [hv]; rfl) _ _ (attrCells_at acc i hi).2.2
      rwa [addr_add] at e

theorem sameAttrs (v v' : Value) (acc : AttL) (hz : acc.length ≤ 1000000) (w : World) (h : AttrRow w v acc) (h' : AttrRow w v' acc) :
    Calls Tryz.prog 19 #[v, v'] w fun e w' => e = .returned (.bool true) ∧ Below w.heap.size w w' := by
  obtain ⟨A, cap, rfl, hA⟩ := h
  obtain ⟨A', cap', rfl, hA'⟩ := h'
  have HA := Lib.hid hA
  have HA' := Lib.hid hA'
  clear hA hA'
  obtain ⟨n, hn⟩ : ∃ n, n = acc.length := ⟨_, rfl⟩
  rw [← hn] at hz ⊢
  have HN := Lib.hid hn
  have hzI : (n : Int) ≤ 1000000 := by omega
  clear hn
  go_enter Tryz.func19, Tryz.ntmps19
  go_wp2_with fail
  go_loopw [5] (fun i wr => ∃ k : Nat, k ≤ n ∧ i = .int .i64 k ∧ Below w.heap.size w wr) (fun i _ => n - (intOf i).toNat)
  case atStart => exact ⟨0, Nat.zero_le _, rfl, Below.refl _ _⟩
  case round =>
    obtain ⟨k, hk, rfl, hB⟩ := hrel
    by_cases hlt : k < n
    · have hI : (k : Int) < (n : Int) := by omega
      obtain ⟨g, rfl, hg, c0, c1, c2⟩ := HA.out k (by rw [← HN.out]; exact hlt)
      obtain ⟨g', rfl, hg', d0, d1, d2⟩ := HA'.out k (by rw [← HN.out]; exact hlt)
      generalize bl (acc[k]'(by rw [← HN.out]; exact hlt)).1 = x at c1 d1
      generalize bl (acc[k]'(by rw [← HN.out]; exact hlt)).2 = y at c2 d2
      replace c0 := (hB.cell (p := ⟨g, k * 3, none⟩) hg).trans c0
      replace c1 := (hB.cell (p := ⟨g, k * 3 + 1, none⟩) hg).trans c1
      replace c2 := (hB.cell (p := ⟨g, k * 3 + 2, none⟩) hg).trans c2
      replace d0 := (hB.cell (p := ⟨g', k * 3, none⟩) hg').trans d0
      replace d1 := (hB.cell (p := ⟨g', k * 3 + 1, none⟩) hg').trans d1
      replace d2 := (hB.cell (p := ⟨g', k * 3 + 2, none⟩) hg').trans d2
      have tx : (x.toList == x.toList) = true := beq_self_eq_true _
      have ty : (y.toList == y.toList) = true := beq_self_eq_true _
      clear hg hg'
      go_wp2_with fail
      go_quiet (fail)
      go_wp2_with fail
      refine ⟨⟨k + 1, by omega, by go_num, _root_.Go.below_drewN hB _⟩, ?_⟩
      simp [intOf]
      omega
    · have hI2 : ¬ (k : Int) < (n : Int) := by omega
      go_wp2_with fail
      go_ret
      exact ⟨rfl, hB⟩

/-- A token of these fields. -/
def tokV (k : Int) (n : ByteArray) (hn : Bool) (p : ByteArray) (hp : Bool) (y : ByteArray) (hy q : Bool) (v : Value) (sc : Bool) (d : ByteArray) (r : Int) : Value :=
  .agg #[.int .i64 k, .string n, .bool hn, .string p, .bool hp, .string y, .bool hy, .bool q, v, .bool sc, .string d, .int .i32 r]
theorem sameToken (k : Int) (n : ByteArray) (hn : Bool) (p : ByteArray) (hp : Bool) (y : ByteArray) (hy q : Bool) (v v' : Value) (sc : Bool) (d : ByteArray) (r : Int) (acc : AttL) (hz : acc.length ≤ 1000000) (w : World) (h : AttrRow w v acc) (h' : AttrRow w v' acc) :
    Calls Tryz.prog 22 #[tokV k n hn p hp y hy q v sc d r, tokV k n hn p hp y hy q v' sc d r] w fun e w' => e = .returned (.bool true) ∧ Below w.heap.size w w' := by
  have HS := Lib.hid (fun W h h' => sameAttrs v v' acc hz W h h')
  have HA := Lib.hid h
  have HA' := Lib.hid h'
  clear h h'
  unfold tokV
  go_enter Tryz.func22, Tryz.ntmps22
  go_wp2_with fail
  generalize hW : World.alloc _ _ = W
  have hb : Below w.heap.size w W := by rw [← hW]; exact below_alloc (below_alloc (Below.refl _ _) _) _
  clear hW
  refine (HS.out W (HA.out.below hb) (HA'.out.below hb)).mono ?_
  rintro e w2 ⟨rfl, hs⟩
  go_wp2_with fail
  go_ret
  exact ⟨rfl, below_next hb hs⟩
end Go.Proofs.YtnfccckodgknjaaGreatDoor

namespace Go.Proofs.YtnfccckodgknjaaGreatDoor
open Go.RowKit Go.Shelf Go.Lib
set_option maxHeartbeats 4000000
set_option maxRecDepth 100000

structure TokS where
  kind : Int := 0
  name : List UInt8 := []
  hn : Bool := false
  pub : List UInt8 := []
  hp : Bool := false
  sys : List UInt8 := []
  hs : Bool := false
  qk : Bool := false
  acc : AttL := []
  sc : Bool := false
  data : List UInt8 := []
  rune : Int := 0

/-- v is this token. -/
def TokRow (w : World) (v : Value) (T : TokS) : Prop :=
  ∃ av, v = tokV T.kind (bl T.name) T.hn (bl T.pub) T.hp (bl T.sys) T.hs T.qk av T.sc (bl T.data) T.rune ∧ AttrRow w av T.acc ∧ T.acc.length ≤ 1000000
theorem TokRow.below {w w' : World} {v : Value} {T : TokS} (h : TokRow w v T) (hb : Below w.heap.size w w') : TokRow w' v T := by
  obtain ⟨av, e, ha, hz⟩ := h
  exact ⟨av, e, ha.below hb, hz⟩
theorem tokRow_plain (w : World) (T : TokS) (h : T.acc = []) : TokRow w (tokV T.kind (bl T.name) T.hn (bl T.pub) T.hp (bl T.sys) T.hs T.qk (.slice none 0 0) T.sc (bl T.data) T.rune) T :=
  ⟨.slice none 0 0, rfl, by rw [h]; exact attrRow_nil w, by rw [h]; exact Nat.zero_le _⟩
theorem sameTok {v v' : Value} {T : TokS} (w : World) (h : TokRow w v T) (h' : TokRow w v' T) :
    Calls Tryz.prog 22 #[v, v'] w fun e w' => e = .returned (.bool true) ∧ Below w.heap.size w w' := by
  obtain ⟨av, rfl, ha, hz⟩ := h
  obtain ⟨av', rfl, ha', _⟩ := h'
  exact sameToken _ _ _ _ _ _ _ _ _ _ _ _ _ _ hz w ha ha'
/-- The twelve parts of a token as they lie in memory. -/
theorem TokRow.form {w : World} {v : Value} {T : TokS} (h : TokRow w v T) : ∃ (k : Int) (n : ByteArray) (hn : Bool) (p : ByteArray) (hp : Bool) (y : ByteArray) (hy q : Bool) (A : Option Addr) (pn pc : Nat) (sc : Bool) (d : ByteArray) (r : Int),
    v = .agg #[.int .i64 k, .string n, .bool hn, .string p, .bool hp, .string y, .bool hy, .bool q, .slice A pn pc, .bool sc, .string d, .int .i32 r] ∧ k = T.kind ∧ n = bl T.name ∧ pn = T.acc.length := by
  obtain ⟨av, rfl, ⟨A, cap, rfl, _⟩, _⟩ := h
  exact ⟨_, _, _, _, _, _, _, _, A, _, cap, _, _, _, rfl, rfl, rfl, rfl⟩
/-- A token in a block of its own. -/
def TokAt (w : World) (g : Nat) (cs : Array Value) : Prop := w.heap[g]? = some (.cells cs 38 (0, 0))
theorem tokAt_new (w : World) (cs : Array Value) : TokAt (w.alloc (.cells cs 38)) w.heap.size cs := by
  show (w.heap.push _)[w.heap.size]? = _
  exact Array.getElem?_push_size
theorem TokAt.lt {w : World} {g : Nat} {cs : Array Value} (h : TokAt w g cs) : g < w.heap.size := (Array.getElem?_eq_some_iff.1 h).1
theorem TokAt.below {w w' : World} {g : Nat} {cs : Array Value} (h : TokAt w g cs) (hb : Below w.heap.size w w') : TokAt w' g cs := heap_below h hb
theorem TokAt.but {w w' : World} {g b : Nat} {cs : Array Value} (h : TokAt w g cs) (hb : But b w w') (hne : g ≠ b) : TokAt w' g cs := heap_but h hb hne
theorem TokAt.cell {w : World} {g : Nat} {cs : Array Value} (h : TokAt w g cs) (o : Nat) : w.cell? ⟨g, o, none⟩ = cs[o]? := heap_cell h o
theorem TokAt.frozen {w : World} {g : Nat} {cs : Array Value} (h : TokAt w g cs) (o : Nat) : w.frozen? ⟨g, o, none⟩ = false := heap_frozen h o
theorem TokAt.cells {w : World} {g : Nat} {c0 c1 c2 c3 c4 c5 c6 c7 c8 c9 c10 c11 : Value} (h : TokAt w g #[c0, c1, c2, c3, c4, c5, c6, c7, c8, c9, c10, c11]) :
    w.cell? ⟨g, 0, none⟩ = some c0 ∧ w.cell? ⟨g, 1, none⟩ = some c1 ∧ w.cell? ⟨g, 2, none⟩ = some c2 ∧ w.cell? ⟨g, 3, none⟩ = some c3 ∧ w.cell? ⟨g, 4, none⟩ = some c4 ∧ w.cell? ⟨g, 5, none⟩ = some c5 ∧ w.cell? ⟨g, 6, none⟩ = some c6 ∧ w.cell? ⟨g, 7, none⟩ = some c7 ∧ w.cell? ⟨g, 8, none⟩ = some c8 ∧ w.cell? ⟨g, 9, none⟩ = some c9 ∧ w.cell? ⟨g, 10, none⟩ = some c10 ∧ w.cell? ⟨g, 11, none⟩ = some c11 :=
  ⟨h.cell 0, h.cell 1, h.cell 2, h.cell 3, h.cell 4, h.cell 5, h.cell 6, h.cell 7, h.cell 8, h.cell 9, h.cell 10, h.cell 11⟩

def tagT (R : RefF) (en : Bool) (t : List UInt8) : TokS × Bool × Nat :=
  match atL R (tgRest t) with
  | none => ({}, false, t.length)
  | some p => (if en then { kind := 3, name := tgName t } else { kind := 2, name := tgName t, acc := p.1, sc := p.2.1 }, true, t.length - p.2.2.length)
def docT (t : List UInt8) : TokS × Nat :=
  ({ kind := 1, name := (docL t).1.name, hn := (docL t).1.hasName, pub := (docL t).1.pub, hp := (docL t).1.hasPub, sys := (docL t).1.sys, hs := (docL t).1.hasSys, qk := (docL t).1.quirks }, t.length - (docL t).2.length)
def goT (R : RefF) (t : List UInt8) : Mk → TokS × List UInt8 × Nat
  | .com d n => ({ kind := 4, data := d }, [], n)
  | .doc o => ((docT (t.drop o)).1, [], o + (docT (t.drop o)).2)
  | .tag en o => ((tagT R en (t.drop o)).1, [], o + (tagT R en (t.drop o)).2.2)
  | .chars c n => ({}, c, n)
/-- Behind "<!", behind "<". -/
def declT (R : RefF) (cd : Bool) (t : List UInt8) : TokS × List UInt8 × Nat := goT R t (declZ cd t)
def closeT (R : RefF) (t : List UInt8) : TokS × List UInt8 × Nat := goT R t (closeZ t)
def mkT (R : RefF) (cd : Bool) (t : List UInt8) : TokS × List UInt8 × Nat := goT R t (mkZ cd t)
def shT (k : Nat) (x : TokS × List UInt8 × Nat) : TokS × List UInt8 × Nat := (x.1, x.2.1, k + x.2.2)
theorem goT_shift (R : RefF) (k : Nat) (t : List UInt8) (m : Mk) : goT R t (m.shift k) = shT k (goT R (t.drop k) m) := by
  cases m with
  | com d n => rfl
  | doc o => simp only [Mk.shift, goT, shT, List.drop_drop, Nat.add_assoc]
  | tag en o => simp only [Mk.shift, goT, shT, List.drop_drop, Nat.add_assoc]
  | chars c n => rfl

/-! ### How far -/
theorem mkT_cons (R : RefF) (cd : Bool) (c : UInt8) (r : List UInt8) : mkT R cd (c :: r) = if c = 33 then shT 1 (declT R cd r) else if leU c then goT R (c :: r) (.tag false 0) else if c = 47 then shT 1 (closeT R r) else if c = 63 then goT R (c :: r) (bogZ (c :: r)) else ({}, [60], 0) := by
  unfold mkT mkZ
  simp only
  split
  · rw [goT_shift]; rfl
  · split
    · rfl
    · split
      · rw [goT_shift]; rfl
      · split <;> rfl
/-- What a reader of a tag, of a declaration, of markup answers. -/
def TagR (k : Nat) (x : TokS × Bool × Nat) (w : World) (e : Ending) (w' : World) : Prop :=
  ∃ v, e = .returned (.tuple #[v, .bool x.2.1, .int .i64 ((k + x.2.2 : Nat) : Int)]) ∧ TokRow w' v x.1 ∧ Below w.heap.size w w'
def DocR (k : Nat) (x : TokS × Nat) (w : World) (e : Ending) (w' : World) : Prop :=
  ∃ v, e = .returned (.tuple #[v, .int .i64 ((k + x.2 : Nat) : Int)]) ∧ TokRow w' v x.1 ∧ Below w.heap.size w w'
def MkR (k : Nat) (x : TokS × List UInt8 × Nat) (w : World) (e : Ending) (w' : World) : Prop :=
  ∃ v, e = .returned (.tuple #[v, .string (bl x.2.1), .int .i64 ((k + x.2.2 : Nat) : Int)]) ∧ TokRow w' v x.1 ∧ Below w.heap.size w w'

theorem left_at {s : ByteArray} {k N : Nat} (hk : k ≤ N) (hN : N ≤ s.size) : k + ((s.data.toList.drop k).length - (s.data.toList.drop N).length) = N := by
  rw [List.length_drop, List.length_drop, size_list]
  omega
theorem left_end {s : ByteArray} {k : Nat} (hk : k ≤ s.size) : k + (s.data.toList.drop k).length = s.size := by
  rw [List.length_drop, size_list]
  omega
theorem tagR_of {R : RefF} {s : ByteArray} {a : Int} {en : Bool} {w w' : World} {tk : Value} {cl : Bool} {N : Nat} (hb : Below w.heap.size w w') (hk : clip s a ≤ N) (hN : N ≤ s.size) (hs : s.size ≤ 1000000)
    (h : (cl = false ∧ tk = tokA 0 ⟨#[]⟩ (.slice none 0 0) false ∧ N = s.size ∧ atL R (tgRest (tlS s a)) = none) ∨
       (cl = true ∧ ∃ (acc : AttL) (sc : Bool) (v : Value), atL R (tgRest (tlS s a)) = some (acc, sc, s.data.toList.drop N) ∧ AttrRow w' v acc ∧ acc.length ≤ s.size ∧
         tk = if en then tokA 3 (bl (tgName (tlS s a))) (.slice none 0 0) false else tokA 2 (bl (tgName (tlS s a))) v sc)) :
    TagR (clip s a) (tagT R en (tlS s a)) w (.returned (.tuple #[tk, .bool cl, .int .i64 N])) w' := by
  rcases h with ⟨rfl, rfl, rfl, h⟩ | ⟨rfl, acc, sc, v, h, hrow, hz, rfl⟩
  · have e : tagT R en (tlS s a) = ({}, false, (tlS s a).length) := by unfold tagT; rw [h]
    rw [e]
    have e2 : clip s a + (tlS s a).length = s.size := left_end hk
    refine ⟨_, ?_, tokRow_plain w' {} rfl, hb⟩
    simp only [e2]
    rfl
  · have e : tagT R en (tlS s a) = (if en then { kind := 3, name := tgName (tlS s a) } else { kind := 2, name := tgName (tlS s a), acc := acc, sc := sc }, true, (tlS s a).length - (s.data.toList.drop N).length) := by unfold tagT; rw [h]
    rw [e]
    have e2 : clip s a + ((tlS s a).length - (s.data.toList.drop N).length) = N := left_at hk hN
    refine ⟨if en then tokA 3 (bl (tgName (tlS s a))) (.slice none 0 0) false else tokA 2 (bl (tgName (tlS s a))) v sc, ?_, ?_, hb⟩
    · simp only [e2]
    · cases en
      · exact ⟨v, rfl, hrow, by show acc.length ≤ 1000000; omega⟩
      · exact tokRow_plain w' { kind := 3, name := tgName (tlS s a) } rfl
theorem tagM (lg : List UInt8 → Nat × List UInt8) (HLG : Hid (LgOk lg)) (s : ByteArray) (a : Int) (en : Bool) (m : Int) (hs : s.size ≤ 1000000) (w : World) (hc : CtlW w) (hm : w.cell? ⟨1, 0, none⟩ = some (.int .i64 m)) :
    Calls Tryz.prog 52 #[.string s, .int .i64 a, .bool en] w (TagR (clip s a) (tagT (refL lg true) en (tlS s a)) w) := by
  refine (tagC lg HLG s a en m hs w hc hm).mono ?_
  rintro e w' ⟨tk, cl, N, rfl, hb, hk, hN, hor⟩
  refine tagR_of hb hk hN hs ?_
  rcases hor with h | ⟨h1, acc, sc, v, h2, h3, h4, h5⟩
  · exact .inl h
  · exact .inr ⟨h1, acc, sc, v, h2, attrRow_of h3, h4, h5⟩
theorem docR_of {s : ByteArray} {a : Int} {w w' : World} {d : Dt} {N : Nat} (hb : Below w.heap.size w w') (hk : clip s a ≤ N) (hN : N ≤ s.size) (h : docL (tlS s a) = (dT d, s.data.toList.drop N)) :
    DocR (clip s a) (docT (tlS s a)) w (.returned (.tuple #[tokD d, .int .i64 N])) w' := by
  have e : docT (tlS s a) = ({ kind := 1, name := d.name.data.toList, hn := d.hn, pub := d.pub.data.toList, hp := d.hp, sys := d.sys.data.toList, hs := d.hs, qk := d.qk }, (tlS s a).length - (s.data.toList.drop N).length) := by unfold docT; rw [h]; rfl
  rw [e]
  have e2 : clip s a + ((tlS s a).length - (s.data.toList.drop N).length) = N := left_at hk hN
  refine ⟨tokD d, ?_, tokRow_plain w' { kind := 1, name := d.name.data.toList, hn := d.hn, pub := d.pub.data.toList, hp := d.hp, sys := d.sys.data.toList, hs := d.hs, qk := d.qk } rfl, hb⟩
  simp only [e2]
theorem docM (s : ByteArray) (a : Int) (m : Int) (hs : s.size ≤ 1000000) (w : World) (hm : w.cell? ⟨1, 0, none⟩ = some (.int .i64 m)) :
    Calls Tryz.prog 20 #[.string s, .int .i64 a] w (DocR (clip s a) (docT (tlS s a)) w) := by
  refine (doctypeC s a m hs w hm).mono ?_
  rintro e w' ⟨d, N, rfl, hb, hk, hN, h⟩
  exact docR_of hb hk hN h
end Go.Proofs.YtnfccckodgknjaaGreatDoor

namespace Go.Proofs.YtnfccckodgknjaaGreatDoor
open Go.RowKit Go.Shelf Go.Lib
set_option maxHeartbeats 4000000
set_option maxRecDepth 100000

theorem qKnown (v : Value) (acc : AttL) (nm : ByteArray) (hz : acc.length ≤ 1000000) (w : World) (h : AttrRow w v acc) :
    Calls Tryz.prog 17 #[v, .string nm] w fun e w' => e = .returned (.bool (knownL acc nm.data.toList)) ∧ Below w.heap.size w w' := by
  obtain ⟨A, cap, rfl, hA⟩ := h
  have HA := Lib.hid hA
  clear hA
  obtain ⟨n, hn⟩ : ∃ n, n = acc.length := ⟨_, rfl⟩
  rw [← hn] at hz ⊢
  have HN := Lib.hid hn
  have hzI : (n : Int) ≤ 1000000 := by omega
  obtain ⟨R, hR⟩ : ∃ R, R = knownL acc nm.data.toList := ⟨_, rfl⟩
  rw [← hR]
  have HR := Lib.hid hR
  clear hn hR
  go_enter Tryz.func17, Tryz.ntmps17
  go_wp2_with fail
  go_loopw [5] (fun i wr => ∃ k : Nat, k ≤ n ∧ i = .int .i64 k ∧ knownL (acc.take k) nm.data.toList = false ∧ Below w.heap.size w wr) (fun i _ => n - (intOf i).toNat)
  case atStart => exact ⟨0, Nat.zero_le _, rfl, rfl, Below.refl _ _⟩
  case round =>
    obtain ⟨k, hk, rfl, hno, hB⟩ := hrel
    have HNO := Lib.hid hno
    clear hno
    by_cases hlt : k < n
    · have hI : (k : Int) < (n : Int) := by omega
      have hla : k < acc.length := by rw [← HN.out]; exact hlt
      obtain ⟨g, rfl, hg, c0, c1, c2⟩ := HA.out k hla
      obtain ⟨x, hx⟩ : ∃ x, x = bl (acc[k]'hla).1 := ⟨_, rfl⟩
      rw [← hx] at c1
      have HX := Lib.hid hx
      replace c1 := (hB.cell (p := ⟨g, k * 3 + 1, none⟩) hg).trans c1
      obtain ⟨t, ht⟩ : ∃ t, (x.toList == nm.toList) = t := ⟨_, rfl⟩
      have ht2 : ((acc[k]'hla).1 == nm.data.toList) = t := by rw [← ht, HX.out, ByteArray.toList_eq, ByteArray.toList_eq]; rfl
      have hst : knownL (acc.take (k + 1)) nm.data.toList = (knownL (acc.take k) nm.data.toList || t) := by
        unfold knownL
        rw [List.take_add_one, List.getElem?_eq_getElem hla, List.any_append, ← ht2]
        simp
      have HST := Lib.hid hst
      have HMEM := Lib.hid (show t = true → knownL acc nm.data.toList = true from fun h => List.any_eq_true.2 ⟨acc[k]'hla, List.getElem_mem hla, by rw [ht2, h]⟩)
      clear c0 c2 hg hx ht2 hst
      cases t
      · go_wp2_with fail
        go_roundw
        case rel => exact ⟨k + 1, by omega, by go_num, by rw [HST.out, HNO.out]; rfl, hB⟩
        case measure => simp [intOf]; omega
      · go_wp2_with fail
        go_ret
        exact ⟨ret_bool (by rw [HR.out]; exact (HMEM.out trivial).symm), hB⟩
    · have hI2 : ¬ (k : Int) < (n : Int) := by omega
      have hk' : k = n := by omega
      have HF : Hid (R = false) := Lib.hid (by
        have h := HNO.out
        rw [hk', HN.out, List.take_length] at h
        rw [HR.out, h])
      clear hk'
      go_wp2_with fail
      go_ret
      exact ⟨ret_bool HF.out.symm, hB⟩
end Go.Proofs.YtnfccckodgknjaaGreatDoor
