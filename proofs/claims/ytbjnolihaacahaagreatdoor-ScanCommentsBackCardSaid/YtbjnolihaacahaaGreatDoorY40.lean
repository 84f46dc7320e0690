/-
  Tag.
-/
import Derived.Test.YtbjnolihaacahaaGreatDoorY39
import Derived.Deep.Onto
namespace Go.Proofs.YtbjnolihaacahaaGreatDoor
open Go.RowKit Go.Shelf Go.Lib
set_option maxHeartbeats 2000000
set_option maxRecDepth 100000

/-- A token of a tag. -/
def tokA (kind : Int) (name : ByteArray) (v : Value) (sc : Bool) : Value :=
  .agg #[.int .i64 kind, .string name, .bool false, .string ⟨#[]⟩, .bool false, .string ⟨#[]⟩, .bool false, .bool false, v, .bool sc, .string ⟨#[]⟩, .int .i32 0]
def tgName (t : List UInt8) : List UInt8 := lowL (nulL (t.take (runN enU t)))
def tgRest (t : List UInt8) : List UInt8 := t.drop (runN enU t)

/-- Twelve cells of a block written, one after the other. -/
def st12 (w : World) (b : Nat) (v0 v1 v2 v3 v4 v5 v6 v7 v8 v9 v10 v11 : Value) : World := ((((((((((((w.setCell ⟨b, 0, none⟩ v0).setCell ⟨b, 1, none⟩ v1).setCell ⟨b, 2, none⟩ v2).setCell ⟨b, 3, none⟩ v3).setCell ⟨b, 4, none⟩ v4).setCell ⟨b, 5, none⟩ v5).setCell ⟨b, 6, none⟩ v6).setCell ⟨b, 7, none⟩ v7).setCell ⟨b, 8, none⟩ v8).setCell ⟨b, 9, none⟩ v9).setCell ⟨b, 10, none⟩ v10).setCell ⟨b, 11, none⟩ v11)
theorem st12_heap {w : World} {b : Nat} {T : TypeId} {c0 c1 c2 c3 c4 c5 c6 c7 c8 c9 c10 c11 : Value} (h : w.heap[b]? = some (.cells #[c0, c1, c2, c3, c4, c5, c6, c7, c8, c9, c10, c11] T (0, 0))) (v0 v1 v2 v3 v4 v5 v6 v7 v8 v9 v10 v11 : Value) : (st12 w b v0 v1 v2 v3 v4 v5 v6 v7 v8 v9 v10 v11).heap[b]? = some (.cells #[v0, v1, v2, v3, v4, v5, v6, v7, v8, v9, v10, v11] T (0, 0)) := by
  unfold st12
  have h0 : (w.setCell ⟨b, 0, none⟩ v0).heap[b]? = some (.cells #[v0, c1, c2, c3, c4, c5, c6, c7, c8, c9, c10, c11] T (0, 0)) := by
    rw [heap_set h 0 v0]
    simp
  have h1 : ((w.setCell ⟨b, 0, none⟩ v0).setCell ⟨b, 1, none⟩ v1).heap[b]? = some (.cells #[v0, v1, c2, c3, c4, c5, c6, c7, c8, c9, c10, c11] T (0, 0)) := by
    rw [heap_set h0 1 v1]
    simp
  have h2 : (((w.setCell ⟨b, 0, none⟩ v0).setCell ⟨b, 1, none⟩ v1).setCell ⟨b, 2, none⟩ v2).heap[b]? = some (.cells #[v0, v1, v2, c3, c4, c5, c6, c7, c8, c9, c10, c11] T (0, 0)) := by
    rw [heap_set h1 2 v2]
    simp
  have h3 : ((((w.setCell ⟨b, 0, none⟩ v0).setCell ⟨b, 1, none⟩ v1).setCell ⟨b, 2, none⟩ v2).setCell ⟨b, 3, none⟩ v3).heap[b]? = some (.cells #[v0, v1, v2, v3, c4, c5, c6, c7, c8, c9, c10, c11] T (0, 0)) := by
    rw [heap_set h2 3 v3]
    simp
  have h4 : (((((w.setCell ⟨b, 0, none⟩ v0).setCell ⟨b, 1, none⟩ v1).setCell ⟨b, 2, none⟩ v2).setCell ⟨b, 3, none⟩ v3).setCell ⟨b, 4, none⟩ v4).heap[b]? = some (.cells #[v0, v1, v2, v3, v4, c5, c6, c7, c8, c9, c10, c11] T (0, 0)) := by
    rw [heap_set h3 4 v4]
    simp
  have h5 : ((((((w.setCell ⟨b, 0, none⟩ v0).setCell ⟨b, 1, none⟩ v1).setCell ⟨b, 2, none⟩ v2).setCell ⟨b, 3, none⟩ v3).setCell ⟨b, 4, none⟩ v4).setCell ⟨b, 5, none⟩ v5).heap[b]? = some (.cells #[v0, v1, v2, v3, v4, v5, c6, c7, c8, c9, c10, c11] T (0, 0)) := by
    rw [heap_set h4 5 v5]
    simp
  have h6 : (((((((w.setCell ⟨b, 0, none⟩ v0).setCell ⟨b, 1, none⟩ v1).setCell ⟨b, 2, none⟩ v2).setCell ⟨b, 3, none⟩ v3).setCell ⟨b, 4, none⟩ v4).setCell ⟨b, 5, none⟩ v5).setCell ⟨b, 6, none⟩ v6).heap[b]? = some (.cells #[v0, v1, v2, v3, v4, v5, v6, c7, c8, c9, c10, c11] T (0, 0)) := by
    rw [heap_set h5 6 v6]
    simp
  have h7 : ((((((((w.setCell ⟨b, 0, none⟩ v0).setCell ⟨b, 1, none⟩ v1).setCell ⟨b, 2, none⟩ v2).setCell ⟨b, 3, none⟩ v3).setCell ⟨b, 4, none⟩ v4).setCell ⟨b, 5, none⟩ v5).setCell ⟨b, 6, none⟩ v6).setCell ⟨b, 7, none⟩ v7).heap[b]? = some (.cells #[v0, v1, v2, v3, v4, v5, v6, v7, c8, c9, c10, c11] T (0, 0)) := by
    rw [heap_set h6 7 v7]
    simp
  have h8 : (((((((((w.setCell ⟨b, 0, none⟩ v0).setCell ⟨b, 1, none⟩ v1).setCell ⟨b, 2, none⟩ v2).setCell ⟨b, 3, none⟩ v3).setCell ⟨b, 4, none⟩ v4).setCell ⟨b, 5, none⟩ v5).setCell ⟨b, 6, none⟩ v6).setCell ⟨b, 7, none⟩ v7).setCell ⟨b, 8, none⟩ v8).heap[b]? = some (.cells #[v0, v1, v2, v3, v4, v5, v6, v7, v8, c9, c10, c11] T (0, 0)) := by
    rw [heap_set h7 8 v8]
    simp
  have h9 : ((((((((((w.setCell ⟨b, 0, none⟩ v0).setCell ⟨b, 1, none⟩ v1).setCell ⟨b, 2, none⟩ v2).setCell ⟨b, 3, none⟩ v3).setCell ⟨b, 4, none⟩ v4).setCell ⟨b, 5, none⟩ v5).setCell ⟨b, 6, none⟩ v6).setCell ⟨b, 7, none⟩ v7).setCell ⟨b, 8, none⟩ v8).setCell ⟨b, 9, none⟩ v9).heap[b]? = some (.cells #[v0, v1, v2, v3, v4, v5, v6, v7, v8, v9, c10, c11] T (0, 0)) := by
    rw [heap_set h8 9 v9]
    simp
  have h10 : (((((((((((w.setCell ⟨b, 0, none⟩ v0).setCell ⟨b, 1, none⟩ v1).setCell ⟨b, 2, none⟩ v2).setCell ⟨b, 3, none⟩ v3).setCell ⟨b, 4, none⟩ v4).setCell ⟨b, 5, none⟩ v5).setCell ⟨b, 6, none⟩ v6).setCell ⟨b, 7, none⟩ v7).setCell ⟨b, 8, none⟩ v8).setCell ⟨b, 9, none⟩ v9).setCell ⟨b, 10, none⟩ v10).heap[b]? = some (.cells #[v0, v1, v2, v3, v4, v5, v6, v7, v8, v9, v10, c11] T (0, 0)) := by
    rw [heap_set h9 10 v10]
    simp
  have h11 : ((((((((((((w.setCell ⟨b, 0, none⟩ v0).setCell ⟨b, 1, none⟩ v1).setCell ⟨b, 2, none⟩ v2).setCell ⟨b, 3, none⟩ v3).setCell ⟨b, 4, none⟩ v4).setCell ⟨b, 5, none⟩ v5).setCell ⟨b, 6, none⟩ v6).setCell ⟨b, 7, none⟩ v7).setCell ⟨b, 8, none⟩ v8).setCell ⟨b, 9, none⟩ v9).setCell ⟨b, 10, none⟩ v10).setCell ⟨b, 11, none⟩ v11).heap[b]? = some (.cells #[v0, v1, v2, v3, v4, v5, v6, v7, v8, v9, v10, v11] T (0, 0)) := by
    rw [heap_set h10 11 v11]
    simp
  exact h11
theorem st12_but (w : World) (b : Nat) (v0 v1 v2 v3 v4 v5 v6 v7 v8 v9 v10 v11 : Value) : But b w (st12 w b v0 v1 v2 v3 v4 v5 v6 v7 v8 v9 v10 v11) := by
  unfold st12
  exact ((((((((((((But.refl b w).trans (But.set _ _ 0 _)).trans (But.set _ _ 1 _)).trans (But.set _ _ 2 _)).trans (But.set _ _ 3 _)).trans (But.set _ _ 4 _)).trans (But.set _ _ 5 _)).trans (But.set _ _ 6 _)).trans (But.set _ _ 7 _)).trans (But.set _ _ 8 _)).trans (But.set _ _ 9 _)).trans (But.set _ _ 10 _)).trans (But.set _ _ 11 _)
theorem below_alloc_but {w w1 w2 : World} {b : Nat} (h : Below w.heap.size w w1) (k : But b w1 w2) (hb : w.heap.size ≤ b) : Below w.heap.size w w2 := below_but h k hb

theorem own_tok {w w' : World} {B b n : Nat} {c : Array Value} {v : Value} {xs : List Value} (h : w.ownsRow B 114 3 v n xs) (hat : w.heap[b]? = some (.cells c 35 (0, 0))) (hb : But b w w') : w'.ownsRow B 114 3 v n xs := by
  refine h.kept hb ?_
  have := ownA_ne h hat (fun _ _ e => by injection e with e1 e2; exact absurd e2 (by decide))
  exact .inr (fun e => this e.symm)

/-- What Tag returns. -/
def TagP (R : RefF) (s : ByteArray) (a : Int) (en : Bool) (w : World) (e : Ending) (w' : World) : Prop :=
  ∃ (tk : Value) (cl : Bool) (N : Nat), e = .returned (.tuple #[tk, .bool cl, .int .i64 N]) ∧ Below w.heap.size w w' ∧ clip s a ≤ N ∧ N ≤ s.size ∧
      ((cl = false ∧ tk = tokA 0 ⟨#[]⟩ (.slice none 0 0) false ∧ N = s.size ∧ atL R (tgRest (tlS s a)) = none) ∨
       (cl = true ∧ ∃ (acc : AttL) (sc : Bool) (v : Value), atL R (tgRest (tlS s a)) = some (acc, sc, s.data.toList.drop N) ∧ w'.ownsRow w.heap.size 114 3 v acc.length (attrCells acc) ∧ acc.length ≤ s.size ∧
         tk = if en then tokA 3 (bl (tgName (tlS s a))) (.slice none 0 0) false else tokA 2 (bl (tgName (tlS s a))) v sc))

theorem tagC (lg : List UInt8 → Nat × List UInt8) (HLG : Hid (LgOk lg)) (s : ByteArray) (a : Int) (en : Bool) (m : Int) (hs : s.size ≤ 1000000) (w : World) (hc : CtlW w) (hm : w.cell? ⟨1, 0, none⟩ = some (.int .i64 m)) :
    Calls Tryz.prog 45 #[.string s, .int .i64 a, .bool en] w (TagP (refL lg true) s a en w) := by
  have HN := Lib.hid (fun w' hm => nameC s a m (by omega) w' hm)
  have HM := Lib.hid hm
  have HC := Lib.hid hc
  have hk := clip_le s a
  have hn := runN_le enU (tlS s a)
  have htl : (tlS s a).length = s.size - clip s a := by unfold tlS; rw [List.length_drop, size_list]
  have htr : s.data.toList.drop (clip s a + runN enU (tlS s a)) = tgRest (tlS s a) := by unfold tgRest tlS; rw [List.drop_drop]
  obtain ⟨k1, hk1⟩ : ∃ k1, k1 = clip s a + runN enU (tlS s a) := ⟨_, rfl⟩
  obtain ⟨nm, hnm⟩ : ∃ nm, nm = bl (tgName (tlS s a)) := ⟨_, rfl⟩
  have hnm' : bl (lowL (nulL ((tlS s a).take (runN enU (tlS s a))))) = nm := hnm.symm
  rw [← hk1, hnm'] at HN
  rw [← hk1] at htr
  have hk1s : k1 ≤ s.size := by omega
  have HKK := Lib.hid (show clip s a ≤ k1 by omega)
  have HTR := Lib.hid htr
  have HA := Lib.hid (fun w' hc hm => attributesC lg HLG s k1 m hs w' hc hm)
  rw [clip_nat s k1 hk1s, tlS_nat s k1 hk1s, htr] at HA
  have HK1 := Lib.hid hk1s
  have HNM := Lib.hid hnm
  clear hm hc hk hn htl htr hk1 hnm hnm' hk1s hs
  go_enter Tryz.func45, Tryz.ntmps45
  go_wp2_with fail
  obtain ⟨w0, hw0⟩ : ∃ w0, w0 = w.alloc (.cells #[.int .i64 0, .string ⟨#[]⟩, .bool false, .string ⟨#[]⟩, .bool false, .string ⟨#[]⟩, .bool false, .bool false, .slice none 0 0, .bool false, .string ⟨#[]⟩, .int .i32 0] 35) := ⟨_, rfl⟩
  rw [← hw0]
  have hb0 : Below w.heap.size w w0 := by rw [hw0]; exact below_alloc (Below.refl _ _) _
  have ht0 : w0.heap[w.heap.size]? = some (.cells #[.int .i64 0, .string ⟨#[]⟩, .bool false, .string ⟨#[]⟩, .bool false, .string ⟨#[]⟩, .bool false, .bool false, .slice none 0 0, .bool false, .string ⟨#[]⟩, .int .i32 0] 35 (0, 0)) := by
    rw [hw0]; show (w.heap.push _)[w.heap.size]? = _; exact Array.getElem?_push_size
  clear hw0
  refine (HN.out w0 (carry HM.out hb0)).mono ?_
  rintro e w1 ⟨rfl, hb1⟩
  have ht1 := heap_below ht0 hb1
  replace hb1 := below_next hb0 hb1
  clear ht0 hb0
  have HA1 := Lib.hid (HA.out w1 (HC.out.below hb1) (carry HM.out hb1))
  go_wp2_with fail
  refine HA1.out.mono ?_
  rintro e w2 ⟨v, sc, cl, N, acc, rfl, hb2, hN1, hN2, hrow, hal, hor⟩
  have hbb := below_next hb1 hb2
  have ht2 := heap_below ht1 hb2
  have hts : w.heap.size < w1.heap.size := (Array.getElem?_eq_some_iff.1 ht1).1
  have HT2 := Lib.hid ht2
  clear ht2 ht1
  have HOR := Lib.hid hor
  have HN1 := Lib.hid (show clip s a ≤ N by have := HKK.out; omega)
  have HN2 := Lib.hid hN2
  obtain ⟨pa, pn, pc, rfl⟩ : ∃ pa pn pc, v = .slice pa pn pc := by
    rcases hrow.2 with ⟨rfl, _⟩ | ⟨g, cap, cur, rfl, _⟩
    · exact ⟨_, _, _, rfl⟩
    · exact ⟨_, _, _, rfl⟩
  have HROW := Lib.hid hrow
  have HAL := Lib.hid hal
  clear hor hN1 hN2 hrow hal
  have t0 : w2.cell? ⟨w.heap.size, 0, none⟩ = some (.int .i64 0) := heap_cell HT2.out 0
  have f0 : w2.frozen? ⟨w.heap.size, 0, none⟩ = false := heap_frozen HT2.out 0
  have t1 : w2.cell? ⟨w.heap.size, 1, none⟩ = some (.string ⟨#[]⟩) := heap_cell HT2.out 1
  have f1 : w2.frozen? ⟨w.heap.size, 1, none⟩ = false := heap_frozen HT2.out 1
  have t2 : w2.cell? ⟨w.heap.size, 2, none⟩ = some (.bool false) := heap_cell HT2.out 2
  have f2 : w2.frozen? ⟨w.heap.size, 2, none⟩ = false := heap_frozen HT2.out 2
  have t3 : w2.cell? ⟨w.heap.size, 3, none⟩ = some (.string ⟨#[]⟩) := heap_cell HT2.out 3
  have f3 : w2.frozen? ⟨w.heap.size, 3, none⟩ = false := heap_frozen HT2.out 3
  have t4 : w2.cell? ⟨w.heap.size, 4, none⟩ = some (.bool false) := heap_cell HT2.out 4
  have f4 : w2.frozen? ⟨w.heap.size, 4, none⟩ = false := heap_frozen HT2.out 4
  have t5 : w2.cell? ⟨w.heap.size, 5, none⟩ = some (.string ⟨#[]⟩) := heap_cell HT2.out 5
  have f5 : w2.frozen? ⟨w.heap.size, 5, none⟩ = false := heap_frozen HT2.out 5
  have t6 : w2.cell? ⟨w.heap.size, 6, none⟩ = some (.bool false) := heap_cell HT2.out 6
  have f6 : w2.frozen? ⟨w.heap.size, 6, none⟩ = false := heap_frozen HT2.out 6
  have t7 : w2.cell? ⟨w.heap.size, 7, none⟩ = some (.bool false) := heap_cell HT2.out 7
  have f7 : w2.frozen? ⟨w.heap.size, 7, none⟩ = false := heap_frozen HT2.out 7
  have t8 : w2.cell? ⟨w.heap.size, 8, none⟩ = some (.slice none 0 0) := heap_cell HT2.out 8
  have f8 : w2.frozen? ⟨w.heap.size, 8, none⟩ = false := heap_frozen HT2.out 8
  have t9 : w2.cell? ⟨w.heap.size, 9, none⟩ = some (.bool false) := heap_cell HT2.out 9
  have f9 : w2.frozen? ⟨w.heap.size, 9, none⟩ = false := heap_frozen HT2.out 9
  have t10 : w2.cell? ⟨w.heap.size, 10, none⟩ = some (.string ⟨#[]⟩) := heap_cell HT2.out 10
  have f10 : w2.frozen? ⟨w.heap.size, 10, none⟩ = false := heap_frozen HT2.out 10
  have t11 : w2.cell? ⟨w.heap.size, 11, none⟩ = some (.int .i32 0) := heap_cell HT2.out 11
  have f11 : w2.frozen? ⟨w.heap.size, 11, none⟩ = false := heap_frozen HT2.out 11
  cases cl
  · go_wp2_with fail
    obtain ⟨w3, hw3⟩ : ∃ w3, w3 = st12 w2 w.heap.size (.int .i64 0) (.string ⟨#[]⟩) (.bool false) (.string ⟨#[]⟩) (.bool false) (.string ⟨#[]⟩) (.bool false) (.bool false) (.slice none 0 0) (.bool false) (.string ⟨#[]⟩) (.int .i32 0) := ⟨_, rfl⟩
    have hw3' := hw3
    unfold st12 at hw3'
    rw [← hw3']
    have h3 : w3.heap[w.heap.size]? = some (.cells #[.int .i64 0, .string ⟨#[]⟩, .bool false, .string ⟨#[]⟩, .bool false, .string ⟨#[]⟩, .bool false, .bool false, (.slice none 0 0), .bool false, .string ⟨#[]⟩, .int .i32 0] 35 (0, 0)) := by rw [hw3]; exact st12_heap HT2.out _ _ _ _ _ _ _ _ _ _ _ _
    have hb3 : But w.heap.size w2 w3 := by rw [hw3]; exact st12_but _ _ _ _ _ _ _ _ _ _ _ _ _ _
    clear hw3 hw3'
    have r0 : w3.cell? ⟨w.heap.size, 0, none⟩ = _ := heap_cell h3 0
    have r1 : w3.cell? ⟨w.heap.size, 1, none⟩ = _ := heap_cell h3 1
    have r2 : w3.cell? ⟨w.heap.size, 2, none⟩ = _ := heap_cell h3 2
    have r3 : w3.cell? ⟨w.heap.size, 3, none⟩ = _ := heap_cell h3 3
    have r4 : w3.cell? ⟨w.heap.size, 4, none⟩ = _ := heap_cell h3 4
    have r5 : w3.cell? ⟨w.heap.size, 5, none⟩ = _ := heap_cell h3 5
    have r6 : w3.cell? ⟨w.heap.size, 6, none⟩ = _ := heap_cell h3 6
    have r7 : w3.cell? ⟨w.heap.size, 7, none⟩ = _ := heap_cell h3 7
    have r8 : w3.cell? ⟨w.heap.size, 8, none⟩ = _ := heap_cell h3 8
    have r9 : w3.cell? ⟨w.heap.size, 9, none⟩ = _ := heap_cell h3 9
    have r10 : w3.cell? ⟨w.heap.size, 10, none⟩ = _ := heap_cell h3 10
    have r11 : w3.cell? ⟨w.heap.size, 11, none⟩ = _ := heap_cell h3 11
    refine bodyPost_ret (v := .tuple #[tokA 0 ⟨#[]⟩ (.slice none 0 0) false, .bool false, .int .i64 N]) (by simp [results, Tryz.results45, go_sem, tokA, r0, r1, r2, r3, r4, r5, r6, r7, r8, r9, r10, r11]) rfl ⟨_, false, N, rfl, below_but hbb hb3 (Nat.le_refl _), HN1.out, HN2.out, ?_⟩
    rcases HOR.out with ⟨h, _⟩ | ⟨_, _, _, _, h1, h2⟩
    · cases h
    · exact .inl ⟨rfl, rfl, h1, h2⟩
  · cases en
    · go_wp2_with fail
      obtain ⟨w3, hw3⟩ : ∃ w3, w3 = st12 w2 w.heap.size (.int .i64 2) (.string nm) (.bool false) (.string ⟨#[]⟩) (.bool false) (.string ⟨#[]⟩) (.bool false) (.bool false) (.slice pa pn pc) (.bool sc) (.string ⟨#[]⟩) (.int .i32 0) := ⟨_, rfl⟩
      have hw3' := hw3
      unfold st12 at hw3'
      rw [← hw3']
      have h3 : w3.heap[w.heap.size]? = some (.cells #[.int .i64 2, .string nm, .bool false, .string ⟨#[]⟩, .bool false, .string ⟨#[]⟩, .bool false, .bool false, .slice pa pn pc, .bool sc, .string ⟨#[]⟩, .int .i32 0] 35 (0, 0)) := by rw [hw3]; exact st12_heap HT2.out _ _ _ _ _ _ _ _ _ _ _ _
      have hb3 : But w.heap.size w2 w3 := by rw [hw3]; exact st12_but _ _ _ _ _ _ _ _ _ _ _ _ _ _
      clear hw3 hw3'
      have r0 : w3.cell? ⟨w.heap.size, 0, none⟩ = _ := heap_cell h3 0
      have r1 : w3.cell? ⟨w.heap.size, 1, none⟩ = _ := heap_cell h3 1
      have r2 : w3.cell? ⟨w.heap.size, 2, none⟩ = _ := heap_cell h3 2
      have r3 : w3.cell? ⟨w.heap.size, 3, none⟩ = _ := heap_cell h3 3
      have r4 : w3.cell? ⟨w.heap.size, 4, none⟩ = _ := heap_cell h3 4
      have r5 : w3.cell? ⟨w.heap.size, 5, none⟩ = _ := heap_cell h3 5
      have r6 : w3.cell? ⟨w.heap.size, 6, none⟩ = _ := heap_cell h3 6
      have r7 : w3.cell? ⟨w.heap.size, 7, none⟩ = _ := heap_cell h3 7
      have r8 : w3.cell? ⟨w.heap.size, 8, none⟩ = _ := heap_cell h3 8
      have r9 : w3.cell? ⟨w.heap.size, 9, none⟩ = _ := heap_cell h3 9
      have r10 : w3.cell? ⟨w.heap.size, 10, none⟩ = _ := heap_cell h3 10
      have r11 : w3.cell? ⟨w.heap.size, 11, none⟩ = _ := heap_cell h3 11
      refine bodyPost_ret (v := .tuple #[tokA 2 nm (.slice pa pn pc) sc, .bool true, .int .i64 N]) (by simp [results, Tryz.results45, go_sem, tokA, r0, r1, r2, r3, r4, r5, r6, r7, r8, r9, r10, r11]) rfl ⟨_, true, N, rfl, below_but hbb hb3 (Nat.le_refl _), HN1.out, HN2.out, ?_⟩
      have hor : atL (refL lg true) (tgRest (tlS s a)) = some (acc, sc, s.data.toList.drop N) := by
        rcases HOR.out with ⟨_, h⟩ | ⟨h, _⟩
        · exact h
        · cases h
      refine .inr ⟨rfl, acc, sc, .slice pa pn pc, hor, ?_, HAL.out, ?_⟩
      · exact own_tok (World.ownsRow.mono HROW.out (by omega)) HT2.out hb3
      · rw [HNM.out]; rfl
    · go_wp2_with fail
      obtain ⟨w3, hw3⟩ : ∃ w3, w3 = st12 w2 w.heap.size (.int .i64 3) (.string nm) (.bool false) (.string ⟨#[]⟩) (.bool false) (.string ⟨#[]⟩) (.bool false) (.bool false) (.slice none 0 0) (.bool false) (.string ⟨#[]⟩) (.int .i32 0) := ⟨_, rfl⟩
      have hw3' := hw3
      unfold st12 at hw3'
      rw [← hw3']
      have h3 : w3.heap[w.heap.size]? = some (.cells #[.int .i64 3, .string nm, .bool false, .string ⟨#[]⟩, .bool false, .string ⟨#[]⟩, .bool false, .bool false, (.slice none 0 0), .bool false, .string ⟨#[]⟩, .int .i32 0] 35 (0, 0)) := by rw [hw3]; exact st12_heap HT2.out _ _ _ _ _ _ _ _ _ _ _ _
      have hb3 : But w.heap.size w2 w3 := by rw [hw3]; exact st12_but _ _ _ _ _ _ _ _ _ _ _ _ _ _
      clear hw3 hw3'
      have r0 : w3.cell? ⟨w.heap.size, 0, none⟩ = _ := heap_cell h3 0
      have r1 : w3.cell? ⟨w.heap.size, 1, none⟩ = _ := heap_cell h3 1
      have r2 : w3.cell? ⟨w.heap.size, 2, none⟩ = _ := heap_cell h3 2
      have r3 : w3.cell? ⟨w.heap.size, 3, none⟩ = _ := heap_cell h3 3
      have r4 : w3.cell? ⟨w.heap.size, 4, none⟩ = _ := heap_cell h3 4
      have r5 : w3.cell? ⟨w.heap.size, 5, none⟩ = _ := heap_cell h3 5
      have r6 : w3.cell? ⟨w.heap.size, 6, none⟩ = _ := heap_cell h3 6
      have r7 : w3.cell? ⟨w.heap.size, 7, none⟩ = _ := heap_cell h3 7
      have r8 : w3.cell? ⟨w.heap.size, 8, none⟩ = _ := heap_cell h3 8
      have r9 : w3.cell? ⟨w.heap.size, 9, none⟩ = _ := heap_cell h3 9
      have r10 : w3.cell? ⟨w.heap.size, 10, none⟩ = _ := heap_cell h3 10
      have r11 : w3.cell? ⟨w.heap.size, 11, none⟩ = _ := heap_cell h3 11
      refine bodyPost_ret (v := .tuple #[tokA 3 nm (.slice none 0 0) false, .bool true, .int .i64 N]) (by simp [results, Tryz.results45, go_sem, tokA, r0, r1, r2, r3, r4, r5, r6, r7, r8, r9, r10, r11]) rfl ⟨_, true, N, rfl, below_but hbb hb3 (Nat.le_refl _), HN1.out, HN2.out, ?_⟩
      have hor : atL (refL lg true) (tgRest (tlS s a)) = some (acc, sc, s.data.toList.drop N) := by
        rcases HOR.out with ⟨_, h⟩ | ⟨h, _⟩
        · exact h
        · cases h
      refine .inr ⟨rfl, acc, sc, .slice pa pn pc, hor, ?_, HAL.out, ?_⟩
      · exact own_tok (World.ownsRow.mono HROW.out (by omega)) HT2.out hb3
      · rw [HNM.out]; rfl
end Go.Proofs.YtbjnolihaacahaaGreatDoor
