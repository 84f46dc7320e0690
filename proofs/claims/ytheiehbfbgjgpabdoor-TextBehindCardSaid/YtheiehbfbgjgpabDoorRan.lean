/-
  A range over the sequence of the parts: the iterator writes a cell of its own.
-/
import Derived.Test.YtheiehbfbgjgpabDoorSpl
namespace Go.Proofs.YtheiehbfbgjgpabDoor
open Go.RowKit Go.Shelf
attribute [local go_sem] Oper.semAt_some
set_option maxHeartbeats 1000000
set_option maxRecDepth 100000

/-- How the body of a round over the parts is left. -/
def partPost (B b0 b1 b2 : Nat) (I : List ByteArray → World → Prop) (xs : List ByteArray) (W : World) : Exit → Act → World → Prop
  | .normal, _, W' => KeepsFrom B W W' ∧ W'.heap[b0]? = W.heap[b0]? ∧ W'.heap[b1]? = W.heap[b1]? ∧ W'.heap[b2]? = W.heap[b2]? ∧ I xs W'
  | _, _, _ => False

theorem range_parts {n : Nat} {g : Operand} {ps : Array Tmp} {assign body : Code} {Q : Exit → Act → World → Prop} {a : Act} {w : World} (h1 : 1 ≤ n - 1) (b0 b1 b2 : Nat) (c : UInt8) (s : ByteArray) (hs : s.size ≤ 100000)
    (hg : a.eval g = .func (.func 96) #[] #[.pointer (some ⟨b0, 0, none⟩), .pointer (some ⟨b1, 0, none⟩), .pointer (some ⟨b2, 0, none⟩)]) (hps : ps.size = 1) (h01 : b0 ≠ b1) (h12 : b1 ≠ b2)
    (hc0 : Boxed w b0 9 (.string ⟨#[c]⟩)) (hc1 : Boxed w b1 9 (.string s)) (hc2 : Boxed w b2 3 (.int .i64 0))
    (I : List ByteArray → World → Prop) (hI : OwnFrom w.heap.size I) (hS : ∀ xs A r x, I xs A → Boxed A b1 9 (.string r) → I xs (A.setCell ⟨b1, 0, none⟩ (.string x))) (h0 : I [] w) (a₁ : ByteArray → Act)
    (hassign : ∀ (l : Nat) (x : ByteArray) (W : World) (K : Act → World → Prop), K (a₁ x) W →
      assign.wpIn (Fence.wide.inRound l) (n - 1 - 1) Tryd.prog (Exit.then K (fun _ _ _ => False)) { tmps := (ps.zip #[.string x]).foldl (fun t (p, v) => t.setIfInBounds p v) a.tmps, defers := [] } W)
    (hbody : ∀ (l : Nat) (pre : List ByteArray) (x r : ByteArray) (W : World), I pre W → pre.length ≤ s.size → x.size ≤ s.size → w.heap.size ≤ W.heap.size → Boxed W b0 9 (.string ⟨#[c]⟩) → Boxed W b1 9 (.string r) → Boxed W b2 3 (.int .i64 0) →
      body.wpIn (Fence.wide.inRound l) (n - 1 - 1) Tryd.prog (partPost w.heap.size b0 b1 b2 I (pre ++ [x]) W) (a₁ x) W)
    (hdone : ∀ (D : Nat) (W : World), w.heap.size ≤ D → I (partsB c s) W → W.heap[D]? = some (.deferred (some [])) → Q .normal { a with defers := { target := .collected D, args := #[] } :: a.defers } W) :
    (Code.rangeFunc g ps assign body).wpIn Fence.wide n Tryd.prog Q a w := by
  have l0 := hc0.lt
  have l1 := hc1.lt
  have l2 := hc2.lt
  refine wpIn_rangeFunc ?_
  intro fn hfn
  rw [show Fence.wide.round = none from rfl]
  obtain ⟨rec, hrec⟩ : ∃ rec : LoopState → Loop, rec = fun st => { state := st, pending := none, fn, tmps := a.tmps, params := ps, assign, body, defers := w.heap.size } := ⟨_, rfl⟩
  obtain ⟨V, hV⟩ : ∃ V, (w.alloc (.deferred (some []))).alloc (.loop (rec .ready)) = V := ⟨_, rfl⟩
  have sz : V.heap.size = w.heap.size + 2 := by rw [← hV]; simp
  have vl : V.heap[w.heap.size + 1]? = some (.loop (rec .ready)) := by
    rw [← hV]
    have := World.alloc_heap_new (w.alloc (.deferred (some []))) (.loop (rec .ready))
    rwa [World.size_alloc] at this
  have vd : V.heap[w.heap.size]? = some (.deferred (some [])) := by
    rw [← hV]
    exact (Below.heap_alloc _ _ _ (by simp)).trans (World.alloc_heap_new w _)
  have vI : I [] V := by
    rw [← hV]
    exact hI _ _ _ _ (hI _ _ _ _ h0 (World.grownBy_alloc w _ none) (fun r e => by cases e)) (World.grownBy_alloc _ _ none) (fun r e => by cases e)
  have v0 : Boxed V b0 9 (.string ⟨#[c]⟩) := by rw [← hV]; exact (hc0.alloc _).alloc _
  have v1 : Boxed V b1 9 (.string s) := by rw [← hV]; exact (hc1.alloc _).alloc _
  have v2 : Boxed V b2 3 (.int .i64 0) := by rw [← hV]; exact (hc2.alloc _).alloc _
  refine ⟨w.heap.size + 1, [{ target := .collected w.heap.size, args := #[] }], V, { target := .fn (.func 96) #[.pointer (some ⟨b0, 0, none⟩), .pointer (some ⟨b1, 0, none⟩), .pointer (some ⟨b2, 0, none⟩)], args := #[.func (.yield (w.heap.size + 1)) #[] #[]] }, V, 96,
    #[.func (.yield (w.heap.size + 1)) #[] #[], .pointer (some ⟨b0, 0, none⟩), .pointer (some ⟨b1, 0, none⟩), .pointer (some ⟨b2, 0, none⟩)], V, ?_, ?_, ?_, ?_, fun _ => by omega, ?_⟩
  · rw [← hV, hrec]; exact run_enterLoop_outer _ _ _ _ _
  · simp only [resolve, hg]
    simp [go_sem]
  · intro f' _; trivial
  · simp [invoke, go_sem]
  · refine (split_in (n - 1) h1 (w.heap.size + 1) b0 b1 b2 c s hs
      (fun pre W => I pre W ∧ w.heap.size ≤ W.heap.size ∧ W.heap[w.heap.size + 1]? = some (.loop (rec .ready)) ∧ W.heap[w.heap.size]? = some (.deferred (some []))) V h01 h12 ?_ ?_ v0 v1 v2 ⟨vI, by omega, vl, vd⟩).mono ?_
    · rintro xs A r x ⟨i1, i2, i3, i4⟩ hbx
      have other : ∀ k, k ≠ b1 → (A.setCell ⟨b1, 0, none⟩ (.string x)).heap[k]? = A.heap[k]? := fun k hk => Below.heap_setCell _ _ _ k hk
      exact ⟨hS _ _ _ _ i1 hbx, Nat.le_trans i2 (by simp), (other _ (by omega)).trans i3, (other _ (by omega)).trans i4⟩
    · rintro pre x r W ⟨i1, i2, i3, i4⟩ hlen hx y0 y1 y2
      have hlt : w.heap.size + 1 < W.heap.size := (Array.getElem?_eq_some_iff.1 i3).1
      have hy := run_yield (P := Tryd.prog) (args := #[.string x]) i3 (by rw [hrec]; exact hps.symm)
      rw [hrec] at hy
      refine ⟨fn, _, assign, body, hy, roundIn_of_wpIn hfn (hassign _ x W _ ⟨_, run_beginRound i3 (by rw [hrec]), ?_⟩)⟩
      obtain ⟨W2, hW2⟩ : ∃ W2, W.putObj (w.heap.size + 1) (.loop { rec .ready with state := .busy }) = W2 := ⟨_, rfl⟩
      have p1 : W2.heap[w.heap.size + 1]? = some (.loop { rec .ready with state := .busy }) := by rw [← hW2]; exact World.putObj_heap_same hlt
      have p0 : ∀ k, k ≠ w.heap.size + 1 → W2.heap[k]? = W.heap[k]? := by intro k hk; rw [← hW2]; exact World.putObj_heap_other hk
      have p2 : I pre W2 := by
        rw [← hW2]
        exact hI _ _ _ _ i1 (grownBy_putObj' W _ _) (fun r e => by cases e; exact ⟨by omega, _, i3, rfl⟩)
      have p3 : W2.heap.size = W.heap.size := by rw [← hW2]; simp
      rw [hW2]
      refine wpIn_mono (hbody _ pre x r W2 p2 hlen hx (by omega) ((p0 _ (by omega)).trans y0) ((p0 _ (by omega)).trans y1) ((p0 _ (by omega)).trans y2)) ?_
      rintro e a3 W3 hp
      cases e with
      | normal =>
        obtain ⟨k1, k2, k3, k4, k5⟩ := hp
        have q1 := k1.same _ _ (by omega) p1 rfl
        have hlt3 := (Array.getElem?_eq_some_iff.1 q1).1
        have hr := run_endRound (P := Tryd.prog) none q1
        have other : ∀ k, k ≠ w.heap.size + 1 → (W3.putObj (w.heap.size + 1) (.loop (rec .ready))).heap[k]? = W3.heap[k]? := fun k hk => World.putObj_heap_other hk
        refine ⟨_, _, ?_, rfl, ⟨hI _ _ _ _ k5 (grownBy_putObj' W3 (w.heap.size + 1) (.loop (rec .ready))) (fun r e => by cases e; exact ⟨by omega, _, q1, rfl⟩), ?_, World.putObj_heap_same hlt3, ?_⟩, ?_, ?_, ?_⟩
        · rw [hrec] at hr ⊢; exact hr
        · have := k1.size; simp; omega
        · exact (other _ (by omega)).trans (k1.same _ _ (Nat.le_refl _) ((p0 _ (by omega)).trans i4) rfl)
        · exact (other _ (by omega)).trans (k2.trans (p0 _ (by omega)))
        · exact (other _ (by omega)).trans (k3.trans (p0 _ (by omega)))
        · exact (other _ (by omega)).trans (k4.trans (p0 _ (by omega)))
      | ret => exact hp.elim
      | exit id => exact hp.elim
      | goto t => exact hp.elim
      | panic ch => exact hp.elim
      | outgrown => exact hp.elim
    · rintro e W2 ⟨⟨v, rfl⟩, i1, i2, i3, i4⟩
      have he := run_endLoop (P := Tryd.prog) i3 (by rw [hrec]; simp)
      rw [hrec] at he
      refine ⟨none, _, he, ?_⟩
      refine hdone _ _ (Nat.le_refl _) (hI _ _ _ _ i1 (grownBy_putObj' W2 (w.heap.size + 1) _) (fun r e => by cases e; exact ⟨by omega, _, i3, rfl⟩)) ((World.putObj_heap_other (by omega)).trans i4)
end Go.Proofs.YtheiehbfbgjgpabDoor
