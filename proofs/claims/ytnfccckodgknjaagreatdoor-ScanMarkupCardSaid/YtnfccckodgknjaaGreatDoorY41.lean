/-
  Tag.
  Document type declarations.
  Document type declarations: a step.
  Document type declarations: a step.
  What any tag is like that was read. No program in sight.
-/
import Derived.Test.YtnfccckodgknjaaGreatDoorY40
import Derived.Deep.Onto
import Derived.Test.YtnfccckodgknjaaGreatDoorY38
import Derived.Test.YtnfccckodgknjaaGreatDoorY35
import Derived.Test.YtnfccckodgknjaaGreatDoorY27
namespace Go.Proofs.YtnfccckodgknjaaGreatDoor
open Go.RowKit Go.Shelf Go.Lib
set_option maxHeartbeats 2000000
set_option maxRecDepth 100000

/-- A token of a tag. -/
def tokA (kind : Int) (name : ByteArray) (v : Value) (sc : Bool) : Value :=
  .agg #[.int .i64 kind, .string name, .bool false, .string ⟨#[]⟩, .bool false, .string ⟨#[]⟩, .bool false, .bool false, v, .bool sc, .string ⟨#[]⟩, .int .i32 0]
def tgName (t : List UInt8) : List UInt8 := lowL (nulL (t.take (runN enU t)))
def tgRest (t : List UInt8) : List UInt8 := t.drop (runN enU t)

/-- Twelve cells of a block written, one after the other. -/
def st12 (w : World) (b : Nat) (v0 v1 v2 v3 v4 v5 v6 v7 v8 v9 v10 v11 : Value) : World := ((((((((((((w.setCell ⟨b, 0, none⟩ v0).setCell ⟨b, 1, none⟩ v1).setCell ⟨b, 2, none⟩ v2).setCell ⟨b, 3, none⟩ v3).setCell ⟨b, 4, none⟩ v4).setCell ⟨b, 5, none⟩ v5).setCell ⟨b, 6, none⟩ v6).setCell ⟨b, 7, none⟩ v7).setCell ⟨b, 8, none⟩ v8).setCell ⟨b, 9, none⟩ v9).setCell ⟨b, 10, none⟩ v10).setCell ⟨b, 11, none⟩ v11)
theorem st12_heap {w : World} {b : Nat} {T : TypeId} {c0 c1 c2 c3 c4 c5 c6 c7 c8 c9 c10 c11 : Value} (h : w.heap[b]? = some (.cells #[c0, c1, c2, c3, c4, c5, c6, c7, c8, c9, c10, c11] T (0, 0))) (v0 v1 v2 v3 v4 v5 v6 v7 v8 v9 v10 v11 : Value) : (st12 w b v0 v1 v2 v3 v4 v5 v6 v7 v8 v9 v10 v11).heap[b]? = some (.cells #[v0, v1, v2, v3, v4, v5, v6, v7, v8, v9, v10, v11] T (0, 0)) := by
  unfold st12
  have h0 : (w.setCell ⟨b, 0, none⟩ v0).heap[b]? = some (.cells #[v0, c1, c2, c3, c4, c5, c6, c7, c8, c9, c10, c11] T (0, 0)) := by
    rw [heap_set h 0 v0]
    simp
  have h1 : ((w.setCell ⟨b, 0, none⟩ v0).setCell ⟨b, 1, none⟩ v1).heap[b]? = some (.cells #[v0, v1, c2, c3, c4, c5, c6, c7, c8, c9, c10, c11] T (0, 0)) := by
    rw [heap_set h0 1 v1]
    simp
  have h2 : (((w.setCell ⟨b, 0, none⟩ v0).setCell ⟨b, 1, none⟩ v1).setCell ⟨b, 2, none⟩ v2).heap[b]? = some (.cells #[v0, v1, v2, c3, c4, c5, c6, c7, c8, c9, c10, c11] T (0, 0)) := by
    rw [heap_set h1 2 v2]
    simp
  have h3 : ((((w.setCell ⟨b, 0, none⟩ v0).setCell ⟨b, 1, none⟩ v1).setCell ⟨b, 2, none⟩ v2).setCell ⟨b, 3, none⟩ v3).heap[b]? = some (.cells #[v0, v1, v2, v3, c4, c5, c6, c7, c8, c9, c10, c11] T (0, 0)) := by
    rw [heap_set h2 3 v3]
    simp
  have h4 : (((((w.setCell ⟨b, 0, none⟩ v0).setCell ⟨b, 1, none⟩ v1).setCell ⟨b, 2, none⟩ v2).setCell ⟨b, 3, none⟩ v3).setCell ⟨b, 4, none⟩ v4).heap[b]? = some (.cells #[v0, v1, v2, v3, v4, c5, c6, c7, c8, c9, c10, c11] T (0, 0)) := by
    rw [heap_set h3 4 v4]
    simp
  have h5 : ((((((w.setCell ⟨b, 0, none⟩ v0).setCell ⟨b, 1, none⟩ v1).setCell ⟨b, 2, none⟩ v2).setCell ⟨b, 3, none⟩ v3).setCell ⟨b, 4, none⟩ v4).setCell ⟨b, 5, none⟩ v5).heap[b]? = some (.cells #[v0, v1, v2, v3, v4, v5, c6, c7, c8, c9, c10, c11] T (0, 0)) := by
    rw [heap_set h4 5 v5]
    simp
  have h6 : (((((((w.setCell ⟨b, 0, none⟩ v0).setCell ⟨b, 1, none⟩ v1).setCell ⟨b, 2, none⟩ v2).setCell ⟨b, 3, none⟩ v3).setCell ⟨b, 4, none⟩ v4).setCell ⟨b, 5, none⟩ v5).setCell ⟨b, 6, none⟩ v6).heap[b]? = some (.cells #[v0, v1, v2, v3, v4, v5, v6, c7, c8, c9, c10, c11] T (0, 0)) := by
    rw [heap_set h5 6 v6]
    simp
  have h7 : ((((((((w.setCell ⟨b, 0, none⟩ v0).setCell ⟨b, 1, none⟩ v1).setCell ⟨b, 2, none⟩ v2).setCell ⟨b, 3, none⟩ v3).setCell ⟨b, 4, none⟩ v4).setCell ⟨b, 5, none⟩ v5).setCell ⟨b, 6, none⟩ v6).setCell ⟨b, 7, none⟩ v7).heap[b]? = some (.cells #[v0, v1, v2, v3, v4, v5, v6, v7, c8, c9, c10, c11] T (0, 0)) := by
    rw [heap_set h6 7 v7]
    simp
  have h8 : (((((((((w.setCell ⟨b, 0, none⟩ v0).setCell ⟨b, 1, none⟩ v1).setCell ⟨b, 2, none⟩ v2).setCell ⟨b, 3, none⟩ v3).setCell ⟨b, 4, none⟩ v4).setCell ⟨b, 5, none⟩ v5).setCell ⟨b, 6, none⟩ v6).setCell ⟨b, 7, none⟩ v7).setCell ⟨b, 8, none⟩ v8).heap[b]? = some (.cells #[v0, v1, v2, v3, v4, v5, v6, v7, v8, c9, c10, c11] T (0, 0)) := by
    rw [heap_set h7 8 v8]
    simp
  have h9 : ((((((((((w.setCell ⟨b, 0, none⟩ v0).setCell ⟨b, 1, none⟩ v1).setCell ⟨b, 2, none⟩ v2).setCell ⟨b, 3, none⟩ v3).setCell ⟨b, 4, none⟩ v4).setCell ⟨b, 5, none⟩ v5).setCell ⟨b, 6, none⟩ v6).setCell ⟨b, 7, none⟩ v7).setCell ⟨b, 8, none⟩ v8).setCell ⟨b, 9, none⟩ v9).heap[b]? = some (.cells #[v0, v1, v2, v3, v4, v5, v6, v7, v8, v9, c10, c11] T (0, 0)) := by
    rw [heap_set h8 9 v9]
    simp
  have h10 : (((((((((((w.setCell ⟨b, 0, none⟩ v0).setCell ⟨b, 1, none⟩ v1).setCell ⟨b, 2, none⟩ v2).setCell ⟨b, 3, none⟩ v3).setCell ⟨b, 4, none⟩ v4).setCell ⟨b, 5, none⟩ v5).setCell ⟨b, 6, none⟩ v6).setCell ⟨b, 7, none⟩ v7).setCell ⟨b, 8, none⟩ v8).setCell ⟨b, 9, none⟩ v9).setCell ⟨b, 10, none⟩ v10).heap[b]? = some (.cells #[v0, v1, v2, v3, v4, v5, v6, v7, v8, v9, v10, c11] T (0, 0)) := by
    rw [heap_set h9 10 v10]
    simp
  have h11 : ((((((((((((w.setCell ⟨b, 0, none⟩ v0).setCell ⟨b, 1, none⟩ v1).setCell ⟨b, 2, none⟩ v2).setCell ⟨b, 3, none⟩ v3).setCell ⟨b, 4, none⟩ v4).setCell ⟨b, 5, none⟩ v5).setCell ⟨b, 6, none⟩ v6).setCell ⟨b, 7, none⟩ v7).setCell ⟨b, 8, none⟩ v8).setCell ⟨b, 9, none⟩ v9).setCell ⟨b, 10, none⟩ v10).setCell ⟨b, 11, none⟩ v11).heap[b]? = some (.cells #[v0, v1, v2, v3, v4, v5, v6, v7, v8, v9, v10, v11] T (0, 0)) := by
    rw [heap_set h10 11 v11]
    simp
  exact h11
theorem st12_but (w : World) (b : Nat) (v0 v1 v2 v3 v4 v5 v6 v7 v8 v9 v10 v11 : Value) : But b w (st12 w b v0 v1 v2 v3 v4 v5 v6 v7 v8 v9 v10 v11) := by
  unfold st12
  exact ((((((((((((But.refl b w).trans (But.set _ _ 0 _)).trans (But.set _ _ 1 _)).trans (But.set _ _ 2 _)).trans (But.set _ _ 3 _)).trans (But.set _ _ 4 _)).trans (But.set _ _ 5 _)).trans (But.set _ _ 6 _)).trans (But.set _ _ 7 _)).trans (But.set _ _ 8 _)).trans (But.set _ _ 9 _)).trans (But.set _ _ 10 _)).trans (But.set _ _ 11 _)
theorem own_tok {w w' : World} {B b n : Nat} {c : Array Value} {v : Value} {xs : List Value} (h : w.ownsRow B 31 3 v n xs) (hat : w.heap[b]? = some (.cells c 38 (0, 0))) (hb : But b w w') : w'.ownsRow B 31 3 v n xs := by
  refine h.kept hb ?_
  have := ownA_ne h hat (fun _ _ e => by injection e with e1 e2; exact absurd e2 (by decide))
  exact .inr (fun e => this e.symm)

/-- What Tag returns. -/
def TagP (R : RefF) (s : ByteArray) (a : Int) (en : Bool) (w : World) (e : Ending) (w' : World) : Prop :=
  ∃ (tk : Value) (cl : Bool) (N : Nat), e = .returned (.tuple #[tk, .bool cl, .int .i64 N]) ∧ Below w.heap.size w w' ∧ clip s a ≤ N ∧ N ≤ s.size ∧
      ((cl = false ∧ tk = tokA 0 ⟨#[]⟩ (.slice none 0 0) false ∧ N = s.size ∧ atL R (tgRest (tlS s a)) = none) ∨
       (cl = true ∧ ∃ (acc : AttL) (sc : Bool) (v : Value), atL R (tgRest (tlS s a)) = some (acc, sc, s.data.toList.drop N) ∧ w'.ownsRow w.heap.size 31 3 v acc.length (attrCells acc) ∧ acc.length ≤ s.size ∧
         tk = if en then tokA 3 (bl (tgName (tlS s a))) (.slice none 0 0) false else tokA 2 (bl (tgName (tlS s a))) v sc))

theorem tagC (lg : List UInt8 → Nat × List UInt8) (HLG : Hid (LgOk lg)) (s : ByteArray) (a : Int) (en : Bool) (m : Int) (hs : s.size ≤ 1000000) (w : World) (hc : CtlW w) (hm : w.cell? ⟨1, 0, none⟩ = some (.int .i64 m)) :
    Calls Tryz.prog 52 #[.string s, .int .i64 a, .bool en] w (TagP (refL lg true) s a en w) := by
  have HN := Lib.hid (fun w' hm => nameC s a m (by omega) w' hm)
  have HM := Lib.hid hm
  have HC := Lib.hid hc
  have hk := clip_le s a
  have hn := runN_le enU (tlS s a)
  have htl : (tlS s a).length = s.size - clip s a := by unfold tlS; rw [List.length_drop, size_list]
  have htr : s.data.toList.drop (clip s a + runN enU (tlS s a)) = tgRest (tlS s a) := by unfold tgRest tlS; rw [List.drop_drop]
  obtain ⟨k1, hk1⟩ : ∃ k1, k1 = clip s a + runN enU (tlS s a) := ⟨_, rfl⟩
  obtain ⟨nm, hnm⟩ : ∃ nm, nm = bl (tgName (tlS s a)) := ⟨_, rfl⟩
  have hnm' : bl (lowL (nulL ((tlS s a).take (runN enU (tlS s a))))) = nm := hnm.symm
  rw [← hk1, hnm'] at HN
  rw [← hk1] at htr
  have hk1s : k1 ≤ s.size := by omega
  have HKK := Lib.hid (show clip s a ≤ k1 by omega)
  have HTR := Lib.hid htr
  have HA := Lib.hid (fun w' hc hm => attributesC lg HLG s k1 m hs w' hc hm)
  rw [clip_nat s k1 hk1s, tlS_nat s k1 hk1s, htr] at HA
  have HK1 := Lib.hid hk1s
  have HNM := Lib.hid hnm
  clear hm hc hk hn htl htr hk1 hnm hnm' hk1s hs
  go_enter Tryz.func52, Tryz.ntmps52
  go_wp2_with fail
  obtain ⟨w0, hw0⟩ : ∃ w0, w0 = w.alloc (.cells #[.int .i64 0, .string ⟨#[]⟩, .bool false, .string ⟨#[]⟩, .bool false, .string ⟨#[]⟩, .bool false, .bool false, .slice none 0 0, .bool false, .string ⟨#[]⟩, .int .i32 0] 38) := ⟨_, rfl⟩
  rw [← hw0]
  have hb0 : Below w.heap.size w w0 := by rw [hw0]; exact below_alloc (Below.refl _ _) _
  have ht0 : w0.heap[w.heap.size]? = some (.cells #[.int .i64 0, .string ⟨#[]⟩, .bool false, .string ⟨#[]⟩, .bool false, .string ⟨#[]⟩, .bool false, .bool false, .slice none 0 0, .bool false, .string ⟨#[]⟩, .int .i32 0] 38 (0, 0)) := by
    rw [hw0]; show (w.heap.push _)[w.heap.size]? = _; exact Array.getElem?_push_size
  clear hw0
  refine (HN.out w0 (carry HM.out hb0)).mono ?_
  rintro e w1 ⟨rfl, hb1⟩
  have ht1 := heap_below ht0 hb1
  replace hb1 := below_next hb0 hb1
  clear ht0 hb0
  have HA1 := Lib.hid (HA.out w1 (HC.out.below hb1) (carry HM.out hb1))
  go_wp2_with fail
  refine HA1.out.mono ?_
  rintro e w2 ⟨v, sc, cl, N, acc, rfl, hb2, hN1, hN2, hrow, hal, hor⟩
  have hbb := below_next hb1 hb2
  have ht2 := heap_below ht1 hb2
  have hts : w.heap.size < w1.heap.size := (Array.getElem?_eq_some_iff.1 ht1).1
  have HT2 := Lib.hid ht2
  clear ht2 ht1
  have HOR := Lib.hid hor
  have HN1 := Lib.hid (show clip s a ≤ N by have := HKK.out; omega)
  have HN2 := Lib.hid hN2
  obtain ⟨pa, pn, pc, rfl⟩ : ∃ pa pn pc, v = .slice pa pn pc := by
    rcases hrow.2 with ⟨rfl, _⟩ | ⟨g, cap, cur, rfl, _⟩
    · exact ⟨_, _, _, rfl⟩
    · exact ⟨_, _, _, rfl⟩
  have HROW := Lib.hid hrow
  have HAL := Lib.hid hal
  clear hor hN1 hN2 hrow hal
  have t0 : w2.cell? ⟨w.heap.size, 0, none⟩ = some (.int .i64 0) := heap_cell HT2.out 0
  have f0 : w2.frozen? ⟨w.heap.size, 0, none⟩ = false := heap_frozen HT2.out 0
  have t1 : w2.cell? ⟨w.heap.size, 1, none⟩ = some (.string ⟨#[]⟩) := heap_cell HT2.out 1
  have f1 : w2.frozen? ⟨w.heap.size, 1, none⟩ = false := heap_frozen HT2.out 1
  have t2 : w2.cell? ⟨w.heap.size, 2, none⟩ = some (.bool false) := heap_cell HT2.out 2
  have f2 : w2.frozen? ⟨w.heap.size, 2, none⟩ = false := heap_frozen HT2.out 2
  have t3 : w2.cell? ⟨w.heap.size, 3, none⟩ = some (.string ⟨#[]⟩) := heap_cell HT2.out 3
  have f3 : w2.frozen? ⟨w.heap.size, 3, none⟩ = false := heap_frozen HT2.out 3
  have t4 : w2.cell? ⟨w.heap.size, 4, none⟩ = some (.bool false) := heap_cell HT2.out 4
  have f4 : w2.frozen? ⟨w.heap.size, 4, none⟩ = false := heap_frozen HT2.out 4
  have t5 : w2.cell? ⟨w.heap.size, 5, none⟩ = some (.string ⟨#[]⟩) := heap_cell HT2.out 5
  have f5 : w2.frozen? ⟨w.heap.size, 5, none⟩ = false := heap_frozen HT2.out 5
  have t6 : w2.cell? ⟨w.heap.size, 6, none⟩ = some (.bool false) := heap_cell HT2.out 6
  have f6 : w2.frozen? ⟨w.heap.size, 6, none⟩ = false := heap_frozen HT2.out 6
  have t7 : w2.cell? ⟨w.heap.size, 7, none⟩ = some (.bool false) := heap_cell HT2.out 7
  have f7 : w2.frozen? ⟨w.heap.size, 7, none⟩ = false := heap_frozen HT2.out 7
  have t8 : w2.cell? ⟨w.heap.size, 8, none⟩ = some (.slice none 0 0) := heap_cell HT2.out 8
  have f8 : w2.frozen? ⟨w.heap.size, 8, none⟩ = false := heap_frozen HT2.out 8
  have t9 : w2.cell? ⟨w.heap.size, 9, none⟩ = some (.bool false) := heap_cell HT2.out 9
  have f9 : w2.frozen? ⟨w.heap.size, 9, none⟩ = false := heap_frozen HT2.out 9
  have t10 : w2.cell? ⟨w.heap.size, 10, none⟩ = some (.string ⟨#[]⟩) := heap_cell HT2.out 10
  have f10 : w2.frozen? ⟨w.heap.size, 10, none⟩ = false := heap_frozen HT2.out 10
  have t11 : w2.cell? ⟨w.heap.size, 11, none⟩ = some (.int .i32 0) := heap_cell HT2.out 11
  have f11 : w2.frozen? ⟨w.heap.size, 11, none⟩ = false := heap_frozen HT2.out 11
  cases cl
  · go_wp2_with fail
    obtain ⟨w3, hw3⟩ : ∃ w3, w3 = st12 w2 w.heap.size (.int .i64 0) (.string ⟨#[]⟩) (.bool false) (.string ⟨#[]⟩) (.bool false) (.string ⟨#[]⟩) (.bool false) (.bool false) (.slice none 0 0) (.bool false) (.string ⟨#[]⟩) (.int .i32 0) := ⟨_, rfl⟩
    have hw3' := hw3
    unfold st12 at hw3'
    rw [← hw3']
    have h3 : w3.heap[w.heap.size]? = some (.cells #[.int .i64 0, .string ⟨#[]⟩, .bool false, .string ⟨#[]⟩, .bool false, .string ⟨#[]⟩, .bool false, .bool false, (.slice none 0 0), .bool false, .string ⟨#[]⟩, .int .i32 0] 38 (0, 0)) := by rw [hw3]; exact st12_heap HT2.out _ _ _ _ _ _ _ _ _ _ _ _
    have hb3 : But w.heap.size w2 w3 := by rw [hw3]; exact st12_but _ _ _ _ _ _ _ _ _ _ _ _ _ _
    clear hw3 hw3'
    have r0 : w3.cell? ⟨w.heap.size, 0, none⟩ = _ := heap_cell h3 0
    have r1 : w3.cell? ⟨w.heap.size, 1, none⟩ = _ := heap_cell h3 1
    have r2 : w3.cell? ⟨w.heap.size, 2, none⟩ = _ := heap_cell h3 2
    have r3 : w3.cell? ⟨w.heap.size, 3, none⟩ = _ := heap_cell h3 3
    have r4 : w3.cell? ⟨w.heap.size, 4, none⟩ = _ := heap_cell h3 4
    have r5 : w3.cell? ⟨w.heap.size, 5, none⟩ = _ := heap_cell h3 5
    have r6 : w3.cell? ⟨w.heap.size, 6, none⟩ = _ := heap_cell h3 6
    have r7 : w3.cell? ⟨w.heap.size, 7, none⟩ = _ := heap_cell h3 7
    have r8 : w3.cell? ⟨w.heap.size, 8, none⟩ = _ := heap_cell h3 8
    have r9 : w3.cell? ⟨w.heap.size, 9, none⟩ = _ := heap_cell h3 9
    have r10 : w3.cell? ⟨w.heap.size, 10, none⟩ = _ := heap_cell h3 10
    have r11 : w3.cell? ⟨w.heap.size, 11, none⟩ = _ := heap_cell h3 11
    refine bodyPost_ret (v := .tuple #[tokA 0 ⟨#[]⟩ (.slice none 0 0) false, .bool false, .int .i64 N]) (by simp [results, Tryz.results52, go_sem, tokA, r0, r1, r2, r3, r4, r5, r6, r7, r8, r9, r10, r11]) rfl ⟨_, false, N, rfl, below_but hbb hb3 (Nat.le_refl _), HN1.out, HN2.out, ?_⟩
    rcases HOR.out with ⟨h, _⟩ | ⟨_, _, _, _, h1, h2⟩
    · cases h
    · exact .inl ⟨rfl, rfl, h1, h2⟩
  · cases en
    · go_wp2_with fail
      obtain ⟨w3, hw3⟩ : ∃ w3, w3 = st12 w2 w.heap.size (.int .i64 2) (.string nm) (.bool false) (.string ⟨#[]⟩) (.bool false) (.string ⟨#[]⟩) (.bool false) (.bool false) (.slice pa pn pc) (.bool sc) (.string ⟨#[]⟩) (.int .i32 0) := ⟨_, rfl⟩
      have hw3' := hw3
      unfold st12 at hw3'
      rw [← hw3']
      have h3 : w3.heap[w.heap.size]? = some (.cells #[.int .i64 2, .string nm, .bool false, .string ⟨#[]⟩, .bool false, .string ⟨#[]⟩, .bool false, .bool false, .slice pa pn pc, .bool sc, .string ⟨#[]⟩, .int .i32 0] 38 (0, 0)) := by rw [hw3]; exact st12_heap HT2.out _ _ _ _ _ _ _ _ _ _ _ _
      have hb3 : But w.heap.size w2 w3 := by rw [hw3]; exact st12_but _ _ _ _ _ _ _ _ _ _ _ _ _ _
      clear hw3 hw3'
      have r0 : w3.cell? ⟨w.heap.size, 0, none⟩ = _ := heap_cell h3 0
      have r1 : w3.cell? ⟨w.heap.size, 1, none⟩ = _ := heap_cell h3 1
      have r2 : w3.cell? ⟨w.heap.size, 2, none⟩ = _ := heap_cell h3 2
      have r3 : w3.cell? ⟨w.heap.size, 3, none⟩ = _ := heap_cell h3 3
      have r4 : w3.cell? ⟨w.heap.size, 4, none⟩ = _ := heap_cell h3 4
      have r5 : w3.cell? ⟨w.heap.size, 5, none⟩ = _ := heap_cell h3 5
      have r6 : w3.cell? ⟨w.heap.size, 6, none⟩ = _ := heap_cell h3 6
      have r7 : w3.cell? ⟨w.heap.size, 7, none⟩ = _ := heap_cell h3 7
      have r8 : w3.cell? ⟨w.heap.size, 8, none⟩ = _ := heap_cell h3 8
      have r9 : w3.cell? ⟨w.heap.size, 9, none⟩ = _ := heap_cell h3 9
      have r10 : w3.cell? ⟨w.heap.size, 10, none⟩ = _ := heap_cell h3 10
      have r11 : w3.cell? ⟨w.heap.size, 11, none⟩ = _ := heap_cell h3 11
      refine bodyPost_ret (v := .tuple #[tokA 2 nm (.slice pa pn pc) sc, .bool true, .int .i64 N]) (by simp [results, Tryz.results52, go_sem, tokA, r0, r1, r2, r3, r4, r5, r6, r7, r8, r9, r10, r11]) rfl ⟨_, true, N, rfl, below_but hbb hb3 (Nat.le_refl _), HN1.out, HN2.out, ?_⟩
      have hor : atL (refL lg true) (tgRest (tlS s a)) = some (acc, sc, s.data.toList.drop N) := by
        rcases HOR.out with ⟨_, h⟩ | ⟨h, _⟩
        · exact h
        · cases h
      refine .inr ⟨rfl, acc, sc, .slice pa pn pc, hor, ?_, HAL.out, ?_⟩
      · exact own_tok (World.ownsRow.mono HROW.out (by omega)) HT2.out hb3
      · rw [HNM.out]; rfl
    · go_wp2_with fail
      obtain ⟨w3, hw3⟩ : ∃ w3, w3 = st12 w2 w.heap.size (.int .i64 3) (.string nm) (.bool false) (.string ⟨#[]⟩) (.bool false) (.string ⟨#[]⟩) (.bool false) (.bool false) (.slice none 0 0) (.bool false) (.string ⟨#[]⟩) (.int .i32 0) := ⟨_, rfl⟩
      have hw3' := hw3
      unfold st12 at hw3'
      rw [← hw3']
      have h3 : w3.heap[w.heap.size]? = some (.cells #[.int .i64 3, .string nm, .bool false, .string ⟨#[]⟩, .bool false, .string ⟨#[]⟩, .bool false, .bool false, (.slice none 0 0), .bool false, .string ⟨#[]⟩, .int .i32 0] 38 (0, 0)) := by rw [hw3]; exact st12_heap HT2.out _ _ _ _ _ _ _ _ _ _ _ _
      have hb3 : But w.heap.size w2 w3 := by rw [hw3]; exact st12_but _ _ _ _ _ _ _ _ _ _ _ _ _ _
      clear hw3 hw3'
      have r0 : w3.cell? ⟨w.heap.size, 0, none⟩ = _ := heap_cell h3 0
      have r1 : w3.cell? ⟨w.heap.size, 1, none⟩ = _ := heap_cell h3 1
      have r2 : w3.cell? ⟨w.heap.size, 2, none⟩ = _ := heap_cell h3 2
      have r3 : w3.cell? ⟨w.heap.size, 3, none⟩ = _ := heap_cell h3 3
      have r4 : w3.cell? ⟨w.heap.size, 4, none⟩ = _ := heap_cell h3 4
      have r5 : w3.cell? ⟨w.heap.size, 5, none⟩ = _ := heap_cell h3 5
      have r6 : w3.cell? ⟨w.heap.size, 6, none⟩ = _ := heap_cell h3 6
      have r7 : w3.cell? ⟨w.heap.size, 7, none⟩ = _ := heap_cell h3 7
      have r8 : w3.cell? ⟨w.heap.size, 8, none⟩ = _ := heap_cell h3 8
      have r9 : w3.cell? ⟨w.heap.size, 9, none⟩ = _ := heap_cell h3 9
      have r10 : w3.cell? ⟨w.heap.size, 10, none⟩ = _ := heap_cell h3 10
      have r11 : w3.cell? ⟨w.heap.size, 11, none⟩ = _ := heap_cell h3 11
      refine bodyPost_ret (v := .tuple #[tokA 3 nm (.slice none 0 0) false, .bool true, .int .i64 N]) (by simp [results, Tryz.results52, go_sem, tokA, r0, r1, r2, r3, r4, r5, r6, r7, r8, r9, r10, r11]) rfl ⟨_, true, N, rfl, below_but hbb hb3 (Nat.le_refl _), HN1.out, HN2.out, ?_⟩
      have hor : atL (refL lg true) (tgRest (tlS s a)) = some (acc, sc, s.data.toList.drop N) := by
        rcases HOR.out with ⟨_, h⟩ | ⟨h, _⟩
        · exact h
        · cases h
      refine .inr ⟨rfl, acc, sc, .slice pa pn pc, hor, ?_, HAL.out, ?_⟩
      · exact own_tok (World.ownsRow.mono HROW.out (by omega)) HT2.out hb3
      · rw [HNM.out]; rfl
end Go.Proofs.YtnfccckodgknjaaGreatDoor

namespace Go.Proofs.YtnfccckodgknjaaGreatDoor
open Go.RowKit Go.Shelf Go.Lib
set_option maxHeartbeats 4000000
set_option maxRecDepth 100000

theorem sk_sk (u : List UInt8) : sk (sk u) = sk u := by
  unfold sk
  rcases runN_drop (fun b => !spU b) u with h | ⟨b, t, h, hb⟩
  · rw [h]; rfl
  · rw [h, runN_yes _ hb]; rfl
def dT (d : Dt) : DocT := { name := d.name.data.toList, hasName := d.hn, pub := d.pub.data.toList, hasPub := d.hp, sys := d.sys.data.toList, hasSys := d.hs, quirks := d.qk }
def idG (k : DocT → List UInt8 → DocT × List UInt8) (T : DocT) (u : List UInt8) : DocT × List UInt8 := match u with | [] => (T.q, []) | c :: r => if c = 62 then (T.q, r) else k T (c :: r)
def dGs (st : Nat) (qb : UInt8) (T : DocT) (u : List UInt8) : DocT × List UInt8 :=
  match st with
  | 0 => kBeforeName T u
  | 1 => kBeforeName T u
  | 2 => kInName T u
  | 3 => kAfterName T u
  | 4 => kBeforePublic T u
  | 5 => kBeforePublic T u
  | 6 => idG (kInPublic qb) T u
  | 7 => kBeforeSystem false T u
  | 8 => kBeforeSystem false T u
  | 9 => kBeforeSystem true T u
  | 10 => kBeforeSystem true T u
  | 11 => idG (kInSystem qb) T u
  | 12 => kAfterSystem T u
  | _ => kBogus T u
theorem dGs0 (qb : UInt8) (T : DocT) (u : List UInt8) : dGs 0 qb T u = kBeforeName T u := rfl
theorem dGs1 (qb : UInt8) (T : DocT) (u : List UInt8) : dGs 1 qb T u = kBeforeName T u := rfl
theorem dGs2 (qb : UInt8) (T : DocT) (u : List UInt8) : dGs 2 qb T u = kInName T u := rfl
theorem dGs3 (qb : UInt8) (T : DocT) (u : List UInt8) : dGs 3 qb T u = kAfterName T u := rfl
theorem dGs4 (qb : UInt8) (T : DocT) (u : List UInt8) : dGs 4 qb T u = kBeforePublic T u := rfl
theorem dGs5 (qb : UInt8) (T : DocT) (u : List UInt8) : dGs 5 qb T u = kBeforePublic T u := rfl
theorem dGs7 (qb : UInt8) (T : DocT) (u : List UInt8) : dGs 7 qb T u = kBeforeSystem false T u := rfl
theorem dGs8 (qb : UInt8) (T : DocT) (u : List UInt8) : dGs 8 qb T u = kBeforeSystem false T u := rfl
theorem dGs9 (qb : UInt8) (T : DocT) (u : List UInt8) : dGs 9 qb T u = kBeforeSystem true T u := rfl
theorem dGs10 (qb : UInt8) (T : DocT) (u : List UInt8) : dGs 10 qb T u = kBeforeSystem true T u := rfl
theorem dGs12 (qb : UInt8) (T : DocT) (u : List UInt8) : dGs 12 qb T u = kAfterSystem T u := rfl
theorem dGs13 (qb : UInt8) (T : DocT) (u : List UInt8) : dGs 13 qb T u = kBogus T u := rfl
def dG (d : Dt) (u : List UInt8) : DocT × List UInt8 := dGs d.st (d.q.data.toList.headD 0) (dT d) u
structure DInv (d : Dt) : Prop where
  st : d.st ≤ 13
  q : d.st = 6 ∨ d.st = 11 → ∃ c, d.q.data.toList = [c] ∧ quU c = true
  pub : d.st ≤ 5 → d.pub = ⟨#[]⟩
  sys : d.st ≤ 10 → d.sys = ⟨#[]⟩
  name : d.st ≤ 2 → d.name = ⟨#[]⟩
  hn : d.st = 2 → d.hn = true
def dRk : Nat → Nat
  | 13 => 0
  | 0 => 4
  | 1 => 4
  | 2 => 3
  | _ => 2

theorem kbn_sk (T : DocT) (u : List UInt8) : kBeforeName T (sk u) = kBeforeName T u := by unfold kBeforeName; rw [sk_sk]
theorem kan_sk (T : DocT) (u : List UInt8) : kAfterName T (sk u) = kAfterName T u := by unfold kAfterName; rw [sk_sk]
theorem kbp_sk (T : DocT) (u : List UInt8) : kBeforePublic T (sk u) = kBeforePublic T u := by unfold kBeforePublic; rw [sk_sk]
theorem kbs_sk (g : Bool) (T : DocT) (u : List UInt8) : kBeforeSystem g T (sk u) = kBeforeSystem g T u := by unfold kBeforeSystem; rw [sk_sk]
theorem kas_sk (T : DocT) (u : List UInt8) : kAfterSystem T (sk u) = kAfterSystem T u := by unfold kAfterSystem; rw [sk_sk]

/-- The end of the string, and a ">". -/
theorem sk_62 (r : List UInt8) : sk (62 :: r) = 62 :: r := by unfold sk; rw [runN_yes _ (by decide)]; rfl
theorem up_62 (r : List UInt8) : upTo62 (62 :: r) = r := by unfold upTo62; rw [runN_yes _ (by decide)]; rfl
theorem bl_nil {d : ByteArray} (h : d = ⟨#[]⟩) : d.data.toList = [] := by rw [h]
theorem dG_end (d : Dt) (h : DInv d) : dG d [] = (dT { d with qk := d.qk || decide (d.st ≠ 13) }, []) := by
  obtain ⟨h1, h2, h3, h4, h5, h6⟩ := h
  obtain ⟨st, q, name, hn, pub, hp, sys, hs, qk⟩ := d
  simp only at *
  have hcase : st = 0 ∨ st = 1 ∨ st = 2 ∨ st = 3 ∨ st = 4 ∨ st = 5 ∨ st = 6 ∨ st = 7 ∨ st = 8 ∨ st = 9 ∨ st = 10 ∨ st = 11 ∨ st = 12 ∨ st = 13 := by omega
  rcases hcase with rfl | rfl | rfl | rfl | rfl | rfl | rfl | rfl | rfl | rfl | rfl | rfl | rfl | rfl
  case inr.inr.inl =>
    have e1 := h5 (by decide)
    have e2 := h6 rfl
    subst e1 e2
    cases qk <;> rfl
  all_goals (cases qk <;> rfl)
theorem dG_gt (d : Dt) (h : DInv d) (r : List UInt8) : dG d (62 :: r) = (dT { d with qk := d.qk || incB d.st }, r) := by
  obtain ⟨h1, h2, h3, h4, h5, h6⟩ := h
  obtain ⟨st, q, name, hn, pub, hp, sys, hs, qk⟩ := d
  simp only at *
  have hcase : st = 0 ∨ st = 1 ∨ st = 2 ∨ st = 3 ∨ st = 4 ∨ st = 5 ∨ st = 6 ∨ st = 7 ∨ st = 8 ∨ st = 9 ∨ st = 10 ∨ st = 11 ∨ st = 12 ∨ st = 13 := by omega
  unfold dG
  rcases hcase with rfl | rfl | rfl | rfl | rfl | rfl | rfl | rfl | rfl | rfl | rfl | rfl | rfl | rfl
  · show dGs 0 _ _ _ = _; rw [dGs0]; unfold kBeforeName; rw [sk_62]; cases qk <;> rfl
  · show dGs 1 _ _ _ = _; rw [dGs1]; unfold kBeforeName; rw [sk_62]; cases qk <;> rfl
  · have e1 := h5 (by decide)
    have e2 := h6 rfl
    subst e1 e2
    show dGs 2 _ _ _ = _
    rw [dGs2]
    unfold kInName
    rw [runN_yes _ (by decide)]
    simp only [List.take_zero, List.drop_zero]
    unfold kAfterName; rw [sk_62]; cases qk <;> rfl
  · show dGs 3 _ _ _ = _; rw [dGs3]; unfold kAfterName; rw [sk_62]; cases qk <;> rfl
  · show dGs 4 _ _ _ = _; rw [dGs4]; unfold kBeforePublic; rw [sk_62]; cases qk <;> rfl
  · show dGs 5 _ _ _ = _; rw [dGs5]; unfold kBeforePublic; rw [sk_62]; cases qk <;> rfl
  · cases qk <;> rfl
  · show dGs 7 _ _ _ = _; rw [dGs7]; unfold kBeforeSystem; rw [sk_62]; cases qk <;> rfl
  · show dGs 8 _ _ _ = _; rw [dGs8]; unfold kBeforeSystem; rw [sk_62]; cases qk <;> rfl
  · show dGs 9 _ _ _ = _; rw [dGs9]; unfold kBeforeSystem; rw [sk_62]; cases qk <;> rfl
  · show dGs 10 _ _ _ = _; rw [dGs10]; unfold kBeforeSystem; rw [sk_62]; cases qk <;> rfl
  · cases qk <;> rfl
  · show dGs 12 _ _ _ = _; rw [dGs12]; unfold kAfterSystem; rw [sk_62, if_neg (by simp)]; unfold kBogus; rw [up_62]; cases qk <;> rfl
  · show dGs 13 _ _ _ = _; rw [dGs13]; unfold kBogus; rw [up_62]; cases qk <;> rfl

/-- An identifier that was opened. -/
theorem id_open_p {c : UInt8} {T : DocT} (hc : quU c = true) (hp : T.pub = []) (r : List UInt8) : idG (kInPublic c) T r = kInPublic c T r := by
  have n62 : (62 : UInt8) ≠ c := by rintro rfl; cases hc
  cases r with
  | nil => unfold idG kInPublic; simp only [List.drop_nil, List.take_nil, nulL_nil, DocT.q]; rw [← hp]
  | cons x t =>
    unfold idG
    simp only
    by_cases h : x = 62
    · subst h
      rw [if_pos rfl]
      unfold kInPublic
      rw [show idN c (62 :: t) = 0 from runN_yes _ (by simp)]
      simp only [List.drop_zero, List.take_zero, nulL_nil]
      rw [if_neg n62]
      simp only [DocT.q]
      rw [← hp]
    · rw [if_neg h]
theorem id_open_s {c : UInt8} {T : DocT} (hc : quU c = true) (hp : T.sys = []) (r : List UInt8) : idG (kInSystem c) T r = kInSystem c T r := by
  have n62 : (62 : UInt8) ≠ c := by rintro rfl; cases hc
  cases r with
  | nil => unfold idG kInSystem; simp only [List.drop_nil, List.take_nil, nulL_nil, DocT.q]; rw [← hp]
  | cons x t =>
    unfold idG
    simp only
    by_cases h : x = 62
    · subst h
      rw [if_pos rfl]
      unfold kInSystem
      rw [show idN c (62 :: t) = 0 from runN_yes _ (by simp)]
      simp only [List.drop_zero, List.take_zero, nulL_nil]
      rw [if_neg n62]
      simp only [DocT.q]
      rw [← hp]
    · rw [if_neg h]
/-- Behind an identifier without its quote. -/
theorem id_rest {c : UInt8} {u : List UInt8} (h : [c].isPrefixOf (u.drop (idN c u)) = false) : u.drop (idN c u) = [] ∨ ∃ r, u.drop (idN c u) = 62 :: r := by
  rcases runN_drop (fun b => b == 62 || b == c) u with e | ⟨b, t, e, hb⟩
  · exact .inl e
  · right
    have e' : u.drop (idN c u) = b :: t := e
    rw [e'] at h ⊢
    simp at hb
    rcases hb with rfl | rfl
    · exact ⟨t, rfl⟩
    · simp [List.isPrefixOf] at h
theorem id_pos {c : UInt8} {u : List UInt8} (hu : u ≠ []) (h62 : [62].isPrefixOf u = false) (h : [c].isPrefixOf (u.drop (idN c u)) = false) : 0 < idN c u := by
  rcases Nat.eq_zero_or_pos (idN c u) with h0 | h0
  · exfalso
    rcases id_rest h with e | ⟨r, e⟩
    · rw [h0] at e; exact hu e
    · rw [h0] at e
      rw [show u = 62 :: r from e] at h62
      simp [List.isPrefixOf] at h62
  · exact h0

theorem ne62 {u : List UInt8} (h : [62].isPrefixOf u = false) : ∀ c r, u = c :: r → c ≠ 62 := by
  rintro c r rfl rfl
  simp [List.isPrefixOf] at h
theorem kan_public (T : DocT) {u : List UInt8} (hsk : u = sk u) (hu : u ≠ []) (h62 : [62].isPrefixOf u = false) (hl : lowL (u.take 6) = sPublic) : kAfterName T u = kBeforePublic T (u.drop 6) := by
  have hn := ne62 h62
  unfold kAfterName
  rw [← hsk]
  cases u with
  | nil => exact absurd rfl hu
  | cons c r => simp only; rw [if_neg (hn c r rfl), if_pos hl]
theorem kan_system (T : DocT) {u : List UInt8} (hsk : u = sk u) (hu : u ≠ []) (h62 : [62].isPrefixOf u = false) (h1 : lowL (u.take 6) ≠ sPublic) (hl : lowL (u.take 6) = sSystem) : kAfterName T u = kBeforeSystem true T (u.drop 6) := by
  have hn := ne62 h62
  unfold kAfterName
  rw [← hsk]
  cases u with
  | nil => exact absurd rfl hu
  | cons c r => simp only; rw [if_neg (hn c r rfl), if_neg h1, if_pos hl]
theorem kan_bogus (T : DocT) {u : List UInt8} (hsk : u = sk u) (hu : u ≠ []) (h62 : [62].isPrefixOf u = false) (h1 : lowL (u.take 6) ≠ sPublic) (hl : lowL (u.take 6) ≠ sSystem) : kAfterName T u = kBogus T.q u := by
  have hn := ne62 h62
  unfold kAfterName
  rw [← hsk]
  cases u with
  | nil => exact absurd rfl hu
  | cons c r => simp only; rw [if_neg (hn c r rfl), if_neg h1, if_neg hl]
theorem qu_ne62 {c : UInt8} (hc : quU c = true) : c ≠ 62 := by rintro rfl; cases hc
theorem kbp_open {s Q : ByteArray} {j : Nat} {c : UInt8} {d : Dt} (hsk : s.data.toList.drop j = sk (s.data.toList.drop j)) (hd : s.data.toList.drop j = c :: s.data.toList.drop (j + 1)) (hc : quU c = true) (hQ : Q.data.toList = [c]) (hp : d.pub.data.toList = []) :
    kBeforePublic (dT d) (s.data.toList.drop j) = dG (opened d false Q) (s.data.toList.drop (j + 1)) := by
  unfold kBeforePublic
  rw [← hsk, hd]
  simp only
  rw [if_neg (qu_ne62 hc), if_pos hc]
  show _ = dGs 6 (Q.data.toList.headD 0) _ _
  rw [hQ]
  exact (id_open_p hc hp _).symm
theorem kbs_open {g : Bool} {s Q : ByteArray} {j : Nat} {c : UInt8} {d : Dt} (hsk : s.data.toList.drop j = sk (s.data.toList.drop j)) (hd : s.data.toList.drop j = c :: s.data.toList.drop (j + 1)) (hc : quU c = true) (hQ : Q.data.toList = [c]) (hp : d.sys.data.toList = []) :
    kBeforeSystem g (dT d) (s.data.toList.drop j) = dG (opened d true Q) (s.data.toList.drop (j + 1)) := by
  unfold kBeforeSystem
  rw [← hsk, hd]
  simp only
  rw [if_neg (qu_ne62 hc), if_pos hc]
  show _ = dGs 11 (Q.data.toList.headD 0) _ _
  rw [hQ]
  exact (id_open_s hc hp _).symm
theorem kbp_bogus {T : DocT} {u : List UInt8} (hsk : u = sk u) (hu : u ≠ []) (h62 : [62].isPrefixOf u = false) (hq : seesB (fun r => quB r) u = false) : kBeforePublic T u = kBogus T.q u := by
  have hn := ne62 h62
  unfold kBeforePublic
  rw [← hsk]
  cases u with
  | nil => exact absurd rfl hu
  | cons c r =>
    have : quU c = false := by rw [← q_qu]; exact hq
    simp only
    rw [if_neg (hn c r rfl), this, if_neg Bool.false_ne_true]
theorem kbs_bogus {g : Bool} {T : DocT} {u : List UInt8} (hsk : u = sk u) (hu : u ≠ []) (h62 : [62].isPrefixOf u = false) (hq : seesB (fun r => quB r) u = false) : kBeforeSystem g T u = kBogus T.q u := by
  have hn := ne62 h62
  unfold kBeforeSystem
  rw [← hsk]
  cases u with
  | nil => exact absurd rfl hu
  | cons c r =>
    have : quU c = false := by rw [← q_qu]; exact hq
    simp only
    rw [if_neg (hn c r rfl), this, if_neg Bool.false_ne_true]
theorem idG_go {k : DocT → List UInt8 → DocT × List UInt8} {T : DocT} {u : List UInt8} (hu : u ≠ []) (h62 : [62].isPrefixOf u = false) : idG k T u = k T u := by
  have hn := ne62 h62
  cases u with
  | nil => exact absurd rfl hu
  | cons c r => unfold idG; simp only; rw [if_neg (hn c r rfl)]
theorem idp_took {s V q name pub sys : ByteArray} {hn hp hs qk : Bool} {j : Nat} {c : UInt8} (hu : s.data.toList.drop j ≠ []) (h62 : [62].isPrefixOf (s.data.toList.drop j) = false) (hp2 : [c].isPrefixOf (s.data.toList.drop (j + idN c (s.data.toList.drop j))) = true)
    (hQ : q.data.toList = [c]) (hV : V.data.toList = nulL ((s.data.toList.drop j).take (idN c (s.data.toList.drop j)))) :
    dG ⟨6, q, name, hn, pub, hp, sys, hs, qk⟩ (s.data.toList.drop j) = dG ⟨7, q, name, hn, V, hp, sys, hs, qk⟩ (s.data.toList.drop (j + idN c (s.data.toList.drop j) + 1)) := by
  show idG (kInPublic (q.data.toList.headD 0)) _ _ = kBeforeSystem false _ _
  rw [hQ, idG_go hu h62]
  show kInPublic c _ _ = _
  have hd := pre_1 hp2
  rw [← List.drop_drop] at hd
  unfold kInPublic
  rw [hd]
  simp only [if_true]
  rw [← hV]
  rfl
theorem ids_took {s V q name pub sys : ByteArray} {hn hp hs qk : Bool} {j : Nat} {c : UInt8} (hu : s.data.toList.drop j ≠ []) (h62 : [62].isPrefixOf (s.data.toList.drop j) = false) (hp2 : [c].isPrefixOf (s.data.toList.drop (j + idN c (s.data.toList.drop j))) = true)
    (hQ : q.data.toList = [c]) (hV : V.data.toList = nulL ((s.data.toList.drop j).take (idN c (s.data.toList.drop j)))) :
    dG ⟨11, q, name, hn, pub, hp, sys, hs, qk⟩ (s.data.toList.drop j) = dG ⟨12, q, name, hn, pub, hp, V, hs, qk⟩ (s.data.toList.drop (j + idN c (s.data.toList.drop j) + 1)) := by
  show idG (kInSystem (q.data.toList.headD 0)) _ _ = kAfterSystem _ _
  rw [hQ, idG_go hu h62]
  show kInSystem c _ _ = _
  have hd := pre_1 hp2
  rw [← List.drop_drop] at hd
  unfold kInSystem
  rw [hd]
  simp only [if_true]
  rw [← hV]
  rfl
theorem idp_rest {s V q name pub sys : ByteArray} {hn hp hs qk : Bool} {j : Nat} {c : UInt8} (hu : s.data.toList.drop j ≠ []) (h62 : [62].isPrefixOf (s.data.toList.drop j) = false) (hp2 : [c].isPrefixOf (s.data.toList.drop (j + idN c (s.data.toList.drop j))) = false)
    (hQ : q.data.toList = [c]) (hV : V.data.toList = nulL ((s.data.toList.drop j).take (idN c (s.data.toList.drop j)))) :
    dG ⟨6, q, name, hn, pub, hp, sys, hs, qk⟩ (s.data.toList.drop j) = dG ⟨6, q, name, hn, V, hp, sys, hs, qk⟩ (s.data.toList.drop (j + idN c (s.data.toList.drop j))) := by
  show idG (kInPublic (q.data.toList.headD 0)) _ _ = idG (kInPublic (q.data.toList.headD 0)) _ _
  rw [idG_go hu h62, hQ]
  show kInPublic c _ _ = idG (kInPublic c) _ _
  rw [← List.drop_drop] at hp2 ⊢
  unfold kInPublic
  rcases id_rest hp2 with e | ⟨r, e⟩
  · rw [e, ← hV]; rfl
  · rw [e] at hp2 ⊢
    simp only
    rw [if_neg (by rintro rfl; simp [List.isPrefixOf] at hp2), ← hV]
    rfl
theorem ids_rest {s V q name pub sys : ByteArray} {hn hp hs qk : Bool} {j : Nat} {c : UInt8} (hu : s.data.toList.drop j ≠ []) (h62 : [62].isPrefixOf (s.data.toList.drop j) = false) (hp2 : [c].isPrefixOf (s.data.toList.drop (j + idN c (s.data.toList.drop j))) = false)
    (hQ : q.data.toList = [c]) (hV : V.data.toList = nulL ((s.data.toList.drop j).take (idN c (s.data.toList.drop j)))) :
    dG ⟨11, q, name, hn, pub, hp, sys, hs, qk⟩ (s.data.toList.drop j) = dG ⟨11, q, name, hn, pub, hp, V, hs, qk⟩ (s.data.toList.drop (j + idN c (s.data.toList.drop j))) := by
  show idG (kInSystem (q.data.toList.headD 0)) _ _ = idG (kInSystem (q.data.toList.headD 0)) _ _
  rw [idG_go hu h62, hQ]
  show kInSystem c _ _ = idG (kInSystem c) _ _
  rw [← List.drop_drop] at hp2 ⊢
  unfold kInSystem
  rcases id_rest hp2 with e | ⟨r, e⟩
  · rw [e, ← hV]; rfl
  · rw [e] at hp2 ⊢
    simp only
    rw [if_neg (by rintro rfl; simp [List.isPrefixOf] at hp2), ← hV]
    rfl
theorem up_run (u : List UInt8) : upTo62 (u.drop (runN (fun b => b == 62) u)) = upTo62 u := by
  unfold upTo62
  rcases runN_drop (fun b => b == 62) u with e | ⟨b, t, e, hb⟩
  · rw [e]; rfl
  · rw [e, runN_yes (q := fun b => b == 62) _ hb]; rfl

/-- What step does. -/
def StepP (b : Nat) (s : ByteArray) (j : Nat) (d : Dt) (w : World) (e : Ending) (w' : World) : Prop :=
  e = .returned (.tuple #[]) ∧ But b w w' ∧ ∃ j' d', DAt w' b s j' d' ∧ DInv d' ∧ j ≤ j' ∧ j' ≤ s.size ∧ dG d' (s.data.toList.drop j') = dG d (s.data.toList.drop j) ∧ 20 * (s.size - j') + dRk d'.st < 20 * (s.size - j) + dRk d.st

theorem q_gt : (qOf fun r => gtB r) = fun b => b == 62 := by
  funext b
  show decide ((b.toNat : Int) = 62) = _
  rw [Bool.eq_iff_iff]; simp [← UInt8.toNat_inj]; omega
end Go.Proofs.YtnfccckodgknjaaGreatDoor

namespace Go.Proofs.YtnfccckodgknjaaGreatDoor
open Go.RowKit Go.Shelf Go.Lib
set_option maxHeartbeats 4000000
set_option maxRecDepth 100000

theorem dStep6 (b : Nat) (s : ByteArray) (j : Nat) (q name : ByteArray) (hn : Bool) (pub : ByteArray) (hp : Bool) (sys : ByteArray) (hsy qk : Bool) (hi : DInv ⟨6, q, name, hn, pub, hp, sys, hsy, qk⟩) (hj : j < s.size) (h62 : [62].isPrefixOf (s.data.toList.drop j) = false) (hs : s.size ≤ 1000000) (m : Int) (w : World) (hm : w.cell? ⟨1, 0, none⟩ = some (.int .i64 m)) (h : DAt w b s j ⟨6, q, name, hn, pub, hp, sys, hsy, qk⟩) :
    Calls Tryz.prog 66 #[.pointer (some ⟨b, 0, none⟩)] w (StepP b s j ⟨6, q, name, hn, pub, hp, sys, hsy, qk⟩ w) := by
  have HS := Lib.hid hs
  have HJ := Lib.hid hj
  have HM := Lib.hid hm
  have HI := Lib.hid hi
  have H62 := Lib.hid h62
  have HAT0 := Lib.hid h
  have hu : s.data.toList.drop j ≠ [] := by rw [drop_byte s j hj]; simp
  have HU := Lib.hid hu
  have HML := Lib.hid (fun W (hb : But b w W) => ml_but hm h.at hb)
  clear hs hj hm hi h62 hu
  have c2 : w.cell? ⟨b, 2, none⟩ = some (.int .i64 6) := h.cell 2
  have f2 := h.frozen 2
  clear h
  have h1 := HAT0.out
  have hb1 := But.refl b w
  obtain ⟨w1, hw1⟩ : ∃ w1, w1 = w := ⟨_, rfl⟩
  rw [← hw1] at h1
  replace hb1 : But b w w1 := by rw [hw1]; exact hb1
  have HW1 := Lib.hid hw1
  clear hw1
  obtain ⟨c, hQ, hc⟩ := HI.out.q (by simp)
  have hR := dRead b s j ⟨6, q, name, hn, pub, hp, sys, hsy, qk⟩ false c hQ hc (by have := HJ.out; omega) HS.out m w1 (by rw [HW1.out]; exact HM.out) h1
  simp only [Bool.false_eq_true, if_false] at hR
  have HR := Lib.hid hR
  have HQ := Lib.hid hQ
  have HC := Lib.hid hc
  clear h1 hR hQ hc
  go_enter Tryz.func66, Tryz.ntmps66
  go_wp2_with fail
  rw [← HW1.out]
  refine HR.out.mono ?_
  rintro e w2 ⟨rfl, hb2, V, hV, hor⟩
  have HV := Lib.hid hV
  have HOR := Lib.hid hor
  have hbb := hb1.trans hb2
  clear hV hor
  go_wp2_with fail
  go_end0
  refine ⟨rfl, hbb, ?_⟩
  rcases HOR.out with ⟨hp2, hj1, h2⟩ | ⟨hp2, hj1, h2⟩
  · refine ⟨_, _, h2, ⟨by simp, fun h => by simp at h, fun h => by simp at h, fun _ => HI.out.sys (by simp), fun h => by simp at h, fun h => by simp at h⟩, by omega, hj1, ?_, by have := HJ.out; simp only [dRk]; simp; omega⟩
    exact (idp_took HU.out H62.out hp2 HQ.out HV.out).symm
  · refine ⟨_, _, h2, ⟨by simp [named2], fun _ => ⟨c, by simpa [named2] using HQ.out, HC.out⟩, fun h => by simp [named2] at h, fun _ => HI.out.sys (by simp), fun h => by simp [named2] at h, fun h => by simp [named2] at h⟩, by omega, hj1, ?_, ?_⟩
    · exact (idp_rest HU.out H62.out hp2 HQ.out HV.out).symm
    · have hpos := id_pos HU.out H62.out (by rw [List.drop_drop]; exact hp2)
      have := HJ.out
      simp only [dRk, named2]; simp; omega

theorem dStep11 (b : Nat) (s : ByteArray) (j : Nat) (q name : ByteArray) (hn : Bool) (pub : ByteArray) (hp : Bool) (sys : ByteArray) (hsy qk : Bool) (hi : DInv ⟨11, q, name, hn, pub, hp, sys, hsy, qk⟩) (hj : j < s.size) (h62 : [62].isPrefixOf (s.data.toList.drop j) = false) (hs : s.size ≤ 1000000) (m : Int) (w : World) (hm : w.cell? ⟨1, 0, none⟩ = some (.int .i64 m)) (h : DAt w b s j ⟨11, q, name, hn, pub, hp, sys, hsy, qk⟩) :
    Calls Tryz.prog 66 #[.pointer (some ⟨b, 0, none⟩)] w (StepP b s j ⟨11, q, name, hn, pub, hp, sys, hsy, qk⟩ w) := by
  have HS := Lib.hid hs
  have HJ := Lib.hid hj
  have HM := Lib.hid hm
  have HI := Lib.hid hi
  have H62 := Lib.hid h62
  have HAT0 := Lib.hid h
  have hu : s.data.toList.drop j ≠ [] := by rw [drop_byte s j hj]; simp
  have HU := Lib.hid hu
  have HML := Lib.hid (fun W (hb : But b w W) => ml_but hm h.at hb)
  clear hs hj hm hi h62 hu
  have c2 : w.cell? ⟨b, 2, none⟩ = some (.int .i64 11) := h.cell 2
  have f2 := h.frozen 2
  clear h
  have h1 := HAT0.out
  have hb1 := But.refl b w
  obtain ⟨w1, hw1⟩ : ∃ w1, w1 = w := ⟨_, rfl⟩
  rw [← hw1] at h1
  replace hb1 : But b w w1 := by rw [hw1]; exact hb1
  have HW1 := Lib.hid hw1
  clear hw1
  obtain ⟨c, hQ, hc⟩ := HI.out.q (by simp)
  have hR := dRead b s j ⟨11, q, name, hn, pub, hp, sys, hsy, qk⟩ true c hQ hc (by have := HJ.out; omega) HS.out m w1 (by rw [HW1.out]; exact HM.out) h1
  simp only [if_true] at hR
  have HR := Lib.hid hR
  have HQ := Lib.hid hQ
  have HC := Lib.hid hc
  clear h1 hR hQ hc
  go_enter Tryz.func66, Tryz.ntmps66
  go_wp2_with fail
  rw [← HW1.out]
  refine HR.out.mono ?_
  rintro e w2 ⟨rfl, hb2, V, hV, hor⟩
  have HV := Lib.hid hV
  have HOR := Lib.hid hor
  have hbb := hb1.trans hb2
  clear hV hor
  go_wp2_with fail
  go_end0
  refine ⟨rfl, hbb, ?_⟩
  rcases HOR.out with ⟨hp2, hj1, h2⟩ | ⟨hp2, hj1, h2⟩
  · refine ⟨_, _, h2, ⟨by simp, fun h => by simp at h, fun h => by simp at h, fun h => by simp at h, fun h => by simp at h, fun h => by simp at h⟩, by omega, hj1, ?_, by have := HJ.out; simp only [dRk]; simp; omega⟩
    exact (ids_took HU.out H62.out hp2 HQ.out HV.out).symm
  · refine ⟨_, _, h2, ⟨by simp [named2], fun _ => ⟨c, by simpa [named2] using HQ.out, HC.out⟩, fun h => by simp [named2] at h, fun h => by simp [named2] at h, fun h => by simp [named2] at h, fun h => by simp [named2] at h⟩, by omega, hj1, ?_, ?_⟩
    · exact (ids_rest HU.out H62.out hp2 HQ.out HV.out).symm
    · have hpos := id_pos HU.out H62.out (by rw [List.drop_drop]; exact hp2)
      have := HJ.out
      simp only [dRk, named2]; simp; omega
end Go.Proofs.YtnfccckodgknjaaGreatDoor

namespace Go.Proofs.YtnfccckodgknjaaGreatDoor
open Go.RowKit Go.Shelf Go.Lib
set_option maxHeartbeats 4000000
set_option maxRecDepth 100000

theorem dStep13 (b : Nat) (s : ByteArray) (j : Nat) (q name : ByteArray) (hn : Bool) (pub : ByteArray) (hp : Bool) (sys : ByteArray) (hsy qk : Bool) (hi : DInv ⟨13, q, name, hn, pub, hp, sys, hsy, qk⟩) (hj : j < s.size) (h62 : [62].isPrefixOf (s.data.toList.drop j) = false) (hs : s.size ≤ 1000000) (m : Int) (w : World) (hm : w.cell? ⟨1, 0, none⟩ = some (.int .i64 m)) (h : DAt w b s j ⟨13, q, name, hn, pub, hp, sys, hsy, qk⟩) :
    Calls Tryz.prog 66 #[.pointer (some ⟨b, 0, none⟩)] w (StepP b s j ⟨13, q, name, hn, pub, hp, sys, hsy, qk⟩ w) := by
  have HS := Lib.hid hs
  have HJ := Lib.hid hj
  have HM := Lib.hid hm
  have HI := Lib.hid hi
  have H62 := Lib.hid h62
  have HAT0 := Lib.hid h
  have hu : s.data.toList.drop j ≠ [] := by rw [drop_byte s j hj]; simp
  have HU := Lib.hid hu
  have HML := Lib.hid (fun W (hb : But b w W) => ml_but hm h.at hb)
  clear hs hj hm hi h62 hu
  have c2 : w.cell? ⟨b, 2, none⟩ = some (.int .i64 13) := h.cell 2
  have f2 := h.frozen 2
  clear h
  have h1 := HAT0.out
  have hb1 := But.refl b w
  obtain ⟨w1, hw1⟩ : ∃ w1, w1 = w := ⟨_, rfl⟩
  rw [← hw1] at h1
  replace hb1 : But b w w1 := by rw [hw1]; exact hb1
  have HW1 := Lib.hid hw1
  clear hw1
  have HUn := Lib.hid (dUntil 136 #[] (fun args w => enters_of Tryz.func136 (by kernel_rfl) rfl args w) (fun r => gtB r) false hi_greater _ q_gt b s j ⟨13, q, name, hn, pub, hp, sys, hsy, qk⟩ (by have := HJ.out; omega) (by have := HS.out; omega) w1 (grows_greater _) h1)
  clear h1
  go_enter Tryz.func66, Tryz.ntmps66
  go_wp2_with fail
  rw [← HW1.out]
  refine HUn.out.mono ?_
  rintro e w2 ⟨N, V, hN, hjN, rfl, _, _, h2, hb2⟩
  have hbb := hb1.trans hb2
  have HN := Lib.hid hN
  have HJN := Lib.hid hjN
  have H2 := Lib.hid h2
  clear hN hjN h2
  go_wp2_with fail
  go_end0
  have hpos : 0 < N := by
    rcases Nat.eq_zero_or_pos N with h0 | h0
    · exfalso
      have hd := drop_byte s j HJ.out
      have h62 := H62.out
      have hn := HN.out
      rw [hd] at h62 hn
      have hne : ((fun b => b == 62) (s[j]'HJ.out)) = false := by
        show (_ == _) = false
        rw [beq_eq_false_iff_ne]
        intro e
        rw [e] at h62
        simp [List.isPrefixOf] at h62
      rw [runN_no (q := fun b => b == 62) _ hne] at hn
      omega
    · exact h0
  refine ⟨rfl, hbb, j + N, ⟨13, q, name, hn, pub, hp, sys, hsy, qk⟩, H2.out, ⟨by simp, fun h => by simp at h, fun h => by simp at h, fun h => by simp at h, fun h => by simp at h, fun h => by simp at h⟩, by omega, HJN.out, ?_, by have := HJN.out; have := HJ.out; simp only [dRk]; omega⟩
  show kBogus _ _ = kBogus _ _
  unfold kBogus
  rw [← List.drop_drop, HN.out, up_run]
end Go.Proofs.YtnfccckodgknjaaGreatDoor

namespace Go.Proofs.YtnfccckodgknjaaGreatDoor
open Go.Lib
set_option maxRecDepth 100000

/-! ### Values have no byte 00 -/
/-! ### The attributes of a tag -/
end Go.Proofs.YtnfccckodgknjaaGreatDoor
