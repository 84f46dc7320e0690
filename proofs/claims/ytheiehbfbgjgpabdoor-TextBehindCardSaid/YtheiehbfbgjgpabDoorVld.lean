/-
  Valid.
-/
import Derived.Test.YtheiehbfbgjgpabDoorPok
namespace Go.Proofs.YtheiehbfbgjgpabDoor
open Go.RowKit Go.Shelf Go.Lib
attribute [local go_sem] Oper.semAt_some
set_option maxHeartbeats 1000000
set_option maxRecDepth 100000

theorem valid_in (n : Nat) (hn : 3 ≤ n) (s : ByteArray) (hs : s.size ≤ 400000) (w : World) :
    CallsIn Fence.wide n Tryd.prog 14 #[.string s] w fun e w' => e = .returned (.bool ((piecesB s).all fun x => x.1.2)) ∧ Below w.heap.size w w' := by
  have h1 : 1 ≤ n := by omega
  refine callsIn_of_wp_marks Tryd.func14 rfl trivial ?_ rfl
  simp only [Tryd.ntmps14, List.size_toArray, List.length_cons, List.length_nil, Nat.reduceAdd, Nat.reduceSub, Array.replicate_succ, Array.replicate_zero, List.push_toArray, List.append_toArray, List.nil_append, List.cons_append]
  gi_wp2_with fail
  refine ⟨trivial, ?_⟩
  refine (callsIn_wide.2 (pieces_call s _)).mono ?_
  rintro e W2 ⟨Bn, rfl, hcn, hb2⟩
  gi_wp2_with fail
  have hbx : Boxed W2 w.heap.size 4 (.bool false) := (hb2.block w.heap.size (by simp)).trans (Boxed.new w 4 (.bool false))
  have hB2 : Below w.heap.size w W2 := below_next (below_alloc (Below.refl _ _) _) hb2
  have hlt := hbx.lt
  refine wpIn_rangeFunc_ownF rfl h1 (gf := 72) (lb := #[.pointer (some ⟨Bn, 0, none⟩)]) rfl trivial (enters_of Tryd.func72 (by kernel_rfl) rfl)
    (pieces_stops (n - 1) (by omega) Bn w.heap.size s (by unfold maxLen; omega) W2 hcn hlt) (fun h k => h.trans k) (fun W l o o' _ h hc _ => cellsK_b W l o o' h hc) (Below.refl _ _) (fun _ => rfl)
    (fun pre W => (pre.all fun x => x.1.2) = true ∧ Boxed W w.heap.size 4 (.bool false) ∧ Below w.heap.size w W)
    (fun c pre W => c = .ret ∧ (pre.all fun x => x.1.2) = false ∧ Boxed W w.heap.size 4 (.bool false) ∧ Below w.heap.size w W)
    (fun s A B row hs hg hr => ⟨hs.1, (boxed_own w.heap.size 4 (fun _ : List Pc => .bool false)).from _ s A B row hs.2.1 hg hr, hs.2.2.grown hg hs.2.2.size (fun k e => Nat.le_trans hB2.size (hr k e).1)⟩)
    (fun _ s A B row hs hg hr => ⟨hs.1, hs.2.1, (boxed_own w.heap.size 4 (fun _ : List Pc => .bool false)).from _ s A B row hs.2.2.1 hg hr, hs.2.2.2.grown hg hs.2.2.2.size (fun k e => Nat.le_trans hB2.size (hr k e).1)⟩)
    ⟨rfl, hbx, hB2⟩
    (fun x => { tmps := #[.string s, undef, .pointer (some ⟨w.heap.size, 0, none⟩), undef, .bool x.1.2, .string s, .func (.func 72) #[] #[.pointer (some ⟨Bn, 0, none⟩)], .string x.1.1, .bool x.1.2, undef, undef], defers := [] }) ?assign ?body ?done ?stop
  case assign =>
    intro l x W K hK
    gi_wp2
    exact hK
  case body =>
    rintro l pre x W ⟨hall, hbx, hB⟩ hlen
    have hc := hbx.cell
    have hf := hbx.frozen
    have hs0 := hbx.set (.bool false)
    cases hx : x.1.2 with
    | true =>
      have HX := Lib.hid hx
      have HA := Lib.hid hall
      clear hx hall hlen
      gi_wp2
      exact ⟨KeepsOthers.refl _, CellsKept.refl _ _, by rw [List.all_append, HA.out]; simp [HX.out], hbx, hB⟩
    | false =>
      have HX := Lib.hid hx
      clear hx hall hlen
      have hk : KeepsOthers W (W.setCell ⟨w.heap.size, 0, none⟩ (.bool false)) := ⟨by simp, fun k o hk ho => by
        refine (Below.heap_setCell _ _ _ k (fun e => ?_)).trans hk
        rw [e, show W.heap[w.heap.size]? = _ from hbx] at hk
        cases hk
        simp [Obj.isCells] at ho⟩
      gi_wp2
      exact ⟨hk, rfl, by rw [List.all_append]; simp [HX.out], hs0, hB.setCell (p := ⟨w.heap.size, 0, none⟩) (Nat.le_refl _) _⟩
  case done =>
    rintro D xs W hD rfl ⟨hall, hbx, hB⟩ hK
    have hc := hbx.cell
    have hf := hbx.frozen
    have hs0 := hbx.set (.bool true)
    have HA := Lib.hid hall
    have hK2 : (W.setCell ⟨w.heap.size, 0, none⟩ (.bool true)).heap[D]? = some (.deferred (some [])) := by
      refine (Below.heap_setCell _ _ _ D (fun e => ?_)).trans hK
      rw [e, show W.heap[w.heap.size]? = _ from hbx] at hK
      cases hK
    clear hall
    gi_wp2_with fail
    refine ⟨by simp, .inl ⟨_, _, rfl, run_takeDeferred hK2, ?_⟩⟩
    have hDn : D ≠ w.heap.size := by omega
    have hcz : ∀ o, ((W.setCell ⟨w.heap.size, 0, none⟩ (.bool true)).putObj D o).cell? ⟨w.heap.size, 0, none⟩ = some (.bool true) := fun o => (Boxed.cell (t := 4) (show ((W.setCell ⟨w.heap.size, 0, none⟩ (.bool true)).putObj D o).heap[w.heap.size]? = _ from (World.putObj_heap_other (fun e => hDn e.symm)).trans hs0))
    refine ⟨.bool true, by simp [results, Tryd.results14, go_sem, hcz], by rw [HA.out], (hB.setCell (p := ⟨w.heap.size, 0, none⟩) (Nat.le_refl _) (.bool true)).trans ?_⟩
    exact belowK_b (w := w) (Nat.le_refl _) (W.setCell ⟨w.heap.size, 0, none⟩ (.bool true)) D _ _ (Nat.le_trans hB2.size hD) hK2 rfl rfl
  case stop =>
    rintro D c pre W hD hpre ⟨rfl, hall, hbx, hB⟩ hK
    have hc := hbx.cell
    have HA : Hid (((piecesB s).all fun x => x.1.2) = false) := Lib.hid (by
      obtain ⟨q, hq⟩ := hpre
      rw [← hq, List.all_append, hall]
      rfl)
    clear hall
    gi_wp2_with fail
    refine ⟨by simp, .inl ⟨_, _, rfl, run_takeDeferred hK, ?_⟩⟩
    have hDn : D ≠ w.heap.size := by omega
    have hcz : ∀ o, ((W).putObj D o).cell? ⟨w.heap.size, 0, none⟩ = some (.bool false) := fun o => (Boxed.cell (t := 4) (show ((W).putObj D o).heap[w.heap.size]? = _ from (World.putObj_heap_other (fun e => hDn e.symm)).trans hbx))
    refine ⟨.bool false, by simp [results, Tryd.results14, go_sem, hcz], by rw [HA.out], hB.trans ?_⟩
    exact belowK_b (w := w) (Nat.le_refl _) (W) D _ _ (Nat.le_trans hB2.size hD) hK rfl rfl

theorem valid (s : ByteArray) (hs : s.size ≤ 400000) (w : World) :
    Calls Tryd.prog 14 #[.string s] w fun e w' => e = .returned (.bool ((piecesB s).all fun x => x.1.2)) ∧ Below w.heap.size w w' :=
  callsIn_wide.1 (valid_in 3 (by omega) s hs w)
end Go.Proofs.YtheiehbfbgjgpabDoor
