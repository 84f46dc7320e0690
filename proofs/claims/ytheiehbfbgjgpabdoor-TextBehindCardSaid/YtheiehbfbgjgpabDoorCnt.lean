/-
  Count: the number of the pieces.
-/
import Derived.Test.YtheiehbfbgjgpabDoorPsp
import Derived.RangeFuncBox
namespace Go.Proofs.YtheiehbfbgjgpabDoor
open Go.RowKit Go.Shelf Go.Lib
attribute [local go_sem] Oper.semAt_some
set_option maxHeartbeats 1000000
set_option maxRecDepth 100000

theorem count_in (n : Nat) (hn : 3 ≤ n) (s : ByteArray) (hs : s.size ≤ 400000) (w : World) :
    CallsIn Fence.wide n Tryd.prog 15 #[.string s] w fun e w' => e = .returned (.int .i64 (piecesB s).length) ∧ Below w.heap.size w w' := by
  have h1 : 1 ≤ n := by omega
  refine callsIn_of_wp_marks Tryd.func15 rfl trivial ?_ rfl
  simp only [Tryd.ntmps15, List.size_toArray, List.length_cons, List.length_nil, Nat.reduceAdd, Nat.reduceSub, Array.replicate_succ, Array.replicate_zero, List.push_toArray, List.append_toArray, List.nil_append, List.cons_append]
  gi_wp2_with fail
  refine ⟨trivial, ?_⟩
  refine (callsIn_wide.2 (pieces_call s _)).mono ?_
  rintro e W2 ⟨Bn, rfl, hcn, hb2⟩
  have hbx : Boxed W2 w.heap.size 3 (.int .i64 0) := (hb2.block w.heap.size (by simp)).trans (Boxed.new w 3 (.int .i64 0))
  have hB2 : Below w.heap.size w W2 := below_next (below_alloc (Below.refl _ _) _) hb2
  have hlt := hbx.lt
  gi_wp2_with fail
  refine wpIn_rangeFunc_ownF rfl h1 (gf := 72) (lb := #[.pointer (some ⟨Bn, 0, none⟩)]) rfl trivial (enters_of Tryd.func72 (by kernel_rfl) rfl)
    (pieces_stops (n - 1) (by omega) Bn w.heap.size s (by unfold maxLen; omega) W2 hcn hlt) (fun h k => h.trans k) (fun W l o o' _ h hc _ => cellsK_b W l o o' h hc) (Below.refl _ _) (fun _ => rfl)
    (fun pre W => Boxed W w.heap.size 3 (.int .i64 pre.length) ∧ Below w.heap.size w W)
    (fun _ _ _ => False)
    (fun s A B row hs hg hr => ⟨(boxed_own w.heap.size 3 (fun pre : List Pc => .int .i64 pre.length)).from _ s A B row hs.1 hg hr, hs.2.grown hg hs.2.size (fun k e => Nat.le_trans hB2.size (hr k e).1)⟩)
    (fun _ _ _ _ _ hs _ _ => hs)
    ⟨hbx, hB2⟩
    (fun x => { tmps := #[.string s, undef, .int .i64 0, .pointer (some ⟨w.heap.size, 0, none⟩), .string s, .func (.func 72) #[] #[.pointer (some ⟨Bn, 0, none⟩)], .string x.1.1, .bool x.1.2, undef, undef, undef], defers := [] }) ?assign ?body ?done ?stop
  case assign =>
    intro l x W K hK
    gi_wp2
    have e : Array.foldl (fun (t : Array Value) (x : Tmp × Value) => t.setIfInBounds x.fst x.snd) #[.string s, undef, .int .i64 0, .pointer (some ⟨w.heap.size, 0, none⟩), .string s, .func (.func 72) #[] #[.pointer (some ⟨Bn, 0, none⟩)], undef, undef, undef, undef, undef] ((#[6, 7] : Array Tmp).zip #[.string x.1.1, .bool x.1.2]) = #[.string s, undef, .int .i64 0, .pointer (some ⟨w.heap.size, 0, none⟩), .string s, .func (.func 72) #[] #[.pointer (some ⟨Bn, 0, none⟩)], .string x.1.1, .bool x.1.2, undef, undef, undef] := by rw [← Array.foldl_toList, Array.toList_zip]; rfl
    exact e ▸ hK
  case body =>
    rintro l pre x W ⟨hbx, hB⟩ hlen
    have hl2 := piecesB_len s
    have hc := hbx.cell
    have hf := hbx.frozen
    have hlen2 : pre.length ≤ 400000 := by omega
    clear hl2 hlen
    gi_wp2
    have e : ((pre ++ [x]).length : Int) = (pre.length : Int) + 1 := by simp
    have hk : KeepsOthers W (W.setCell ⟨w.heap.size, 0, none⟩ (.int .i64 ((pre.length : Int) + 1))) := ⟨by simp, fun k o hk ho => by
      refine (Below.heap_setCell _ _ _ k (fun e => ?_)).trans hk
      rw [e, show W.heap[w.heap.size]? = _ from hbx] at hk
      cases hk
      simp [Obj.isCells] at ho⟩
    have hk2 : CellsKept w.heap.size W (W.setCell ⟨w.heap.size, 0, none⟩ (.int .i64 ((pre.length : Int) + 1))) := ⟨by simp, fun k c t fz hk hne _ => (Below.heap_setCell _ _ _ k hne).trans hk⟩
    exact ⟨hk, hk2, by rw [e]; exact hbx.set _, hB.setCell (p := ⟨w.heap.size, 0, none⟩) (Nat.le_refl _) _⟩
  case done =>
    rintro D xs W hD rfl ⟨hbx, hB⟩ hK
    have hc := hbx.cell
    gi_wp2_with fail
    refine ⟨by simp, .inl ⟨_, _, rfl, run_takeDeferred hK, ?_⟩⟩
    refine ⟨_, results_tmp rfl _ _ _, rfl, hB.trans ?_⟩
    exact belowK_b (w := w) (Nat.le_refl _) W D _ _ (Nat.le_trans hB2.size hD) hK rfl rfl
  case stop =>
    rintro D c pre W _ _ h _
    exact h.elim

theorem count (s : ByteArray) (hs : s.size ≤ 400000) (w : World) :
    Calls Tryd.prog 15 #[.string s] w fun e w' => e = .returned (.int .i64 (piecesB s).length) ∧ Below w.heap.size w w' :=
  callsIn_wide.1 (count_in 3 (by omega) s hs w)
end Go.Proofs.YtheiehbfbgjgpabDoor
