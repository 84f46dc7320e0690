/-
  The sequence of the parts of a string between one byte.
  A range over the sequence of the parts: the iterator writes a cell of its own.
-/
import Derived.Test.YtnfccckodgknjaaGreatDoorY18
import Derived.Test.YtnfccckodgknjaaGreatDoorY10
import Derived.RangeFuncBox
namespace Go.Proofs.YtnfccckodgknjaaGreatDoor
open Go.RowKit Go.Shelf
attribute [local go_sem] Oper.semAt_some
set_option maxHeartbeats 1000000
set_option maxRecDepth 100000

def pk (l : List UInt8) : ByteArray := ⟨l.toArray⟩
def partsB (c : UInt8) (s : ByteArray) : List ByteArray := (parts c s.data.toList).map pk

theorem boxed_new (W : World) (B : Nat) (t : TypeId) (v : Value) (h : B = W.heap.size) : Boxed (W.alloc (.cells #[v] t)) B t v := by subst h; exact Boxed.new W t v

theorem parts_index (c : UInt8) : ∀ l : List UInt8, (Lib.indexByte l c = -1 ∧ parts c l = [l]) ∨ ∃ i : Nat, Lib.indexByte l c = i ∧ i < l.length ∧ parts c l = l.take i :: parts c (l.drop (i + 1)) := by
  intro l
  induction l with
  | nil => exact .inl ⟨rfl, rfl⟩
  | cons b t ih =>
    by_cases hb : (b == c) = true
    · refine .inr ⟨0, ?_, by simp, ?_⟩
      · simp [Lib.indexByte, hb]
      · rw [parts, if_pos hb]; rfl
    · rw [parts, if_neg hb]
      rcases ih with ⟨h1, h2⟩ | ⟨i, h1, h2, h3⟩
      · refine .inl ⟨?_, by rw [h2]⟩
        simp [Lib.indexByte, hb, h1]
      · refine .inr ⟨i + 1, ?_, by simp; omega, by rw [h3]; rfl⟩
        rw [Lib.indexByte, if_neg hb, h1]
        simp

theorem partsB_step (c : UInt8) (r : ByteArray) : (Lib.indexByte r.data.toList c = -1 ∧ partsB c r = [r]) ∨ ∃ i : Nat, Lib.indexByte r.data.toList c = i ∧ i < r.size ∧ partsB c r = r.extract 0 i :: partsB c (r.extract (i + 1) r.size) := by
  unfold partsB
  rcases parts_index c r.data.toList with ⟨h1, h2⟩ | ⟨i, h1, h2, h3⟩
  · exact .inl ⟨h1, by rw [h2]; rfl⟩
  · refine .inr ⟨i, h1, by rw [size_list] at h2; exact h2, ?_⟩
    rw [h3, List.map_cons]
    have e1 : (r.extract 0 i).data.toList = r.data.toList.take i := by rw [Lib.extract_data]; simp
    have e2 : (r.extract (i + 1) r.size).data.toList = r.data.toList.drop (i + 1) := by
      rw [Lib.extract_data]
      exact List.take_of_length_le (by rw [List.length_drop, Array.length_toList]; exact Nat.le_refl _)
    rw [e2, ← e1]
    rfl

theorem splitSeq_call (s : ByteArray) (c : UInt8) (w : World) :
    Calls Tryz.prog 244 #[.string s, .string ⟨#[c]⟩] w fun e w' => ∃ b0 b1 b2, e = .returned (.func (.func 261) #[] #[.pointer (some ⟨b0, 0, none⟩), .pointer (some ⟨b1, 0, none⟩), .pointer (some ⟨b2, 0, none⟩)]) ∧
      Boxed w' b0 9 (.string ⟨#[c]⟩) ∧ Boxed w' b1 9 (.string s) ∧ Boxed w' b2 3 (.int .i64 0) ∧ b0 ≠ b1 ∧ b1 ≠ b2 ∧ w.heap.size ≤ b1 ∧ Below w.heap.size w w' := by
  go_enter Tryz.func244, Tryz.ntmps244
  go_wp2
  refine bodyPost_ret (results_tmp rfl _ _ _) rfl ?_
  exact ⟨w.heap.size + 1, w.heap.size, w.heap.size + 1 + 1, rfl, boxed_new _ _ _ _ (by simp) |>.alloc _, ((Boxed.new _ _ _).alloc _).alloc _, boxed_new _ _ _ _ (by simp), by omega, by omega, Nat.le_refl _, by (repeat' (first | (with_reducible exact Below.refl _ _) | (with_reducible assumption) | (with_reducible refine below_alloc ?_ _) | (with_reducible refine Below.drew ?_) | (with_reducible refine _root_.Go.below_drewN ?_ _) | (with_reducible refine Below.setCell ?_ ?_ _) | go_size | (refine below_next ?_ (by assumption))))⟩
theorem split_in (n : Nat) (hn : 1 ≤ n) (l b0 b1 b2 : Nat) (c : UInt8) (s : ByteArray) (hs : s.size ≤ 100000) (J : List ByteArray → World → Prop) (W : World) (h01 : b0 ≠ b1) (h12 : b1 ≠ b2)
    (hJ : ∀ xs A r x, J xs A → Boxed A b1 9 (.string r) → J xs (A.setCell ⟨b1, 0, none⟩ (.string x)))
    (hY : ∀ pre x r W1, J pre W1 → pre.length ≤ s.size → x.size ≤ s.size → Boxed W1 b0 9 (.string ⟨#[c]⟩) → Boxed W1 b1 9 (.string r) → Boxed W1 b2 3 (.int .i64 0) → YieldAt Fence.wide (n - 1) Tryz.prog l #[.string x] W1 fun e W' =>
      e = .returned (.bool true) ∧ J (pre ++ [x]) W' ∧ W'.heap[b0]? = W1.heap[b0]? ∧ W'.heap[b1]? = W1.heap[b1]? ∧ W'.heap[b2]? = W1.heap[b2]?)
    (hc0 : Boxed W b0 9 (.string ⟨#[c]⟩)) (hc1 : Boxed W b1 9 (.string s)) (hc2 : Boxed W b2 3 (.int .i64 0)) (h0 : J [] W) :
    CallsIn Fence.wide n Tryz.prog 261 #[.func (.yield l) #[] #[], .pointer (some ⟨b0, 0, none⟩), .pointer (some ⟨b1, 0, none⟩), .pointer (some ⟨b2, 0, none⟩)] W fun e W' => (∃ v, e = .returned v) ∧ J (partsB c s) W' := by
  refine callsIn_of_wp Tryz.func261 rfl trivial ?_ rfl
  simp only [Tryz.ntmps261, List.size_toArray, List.length_cons, List.length_nil, Nat.reduceAdd, Nat.reduceSub, Array.replicate_succ, Array.replicate_zero, List.push_toArray, List.append_toArray, List.nil_append, List.cons_append]
  have k0 := hc0.cell
  have k1 := hc1.cell
  have k2 := hc2.cell
  gi_wp2_with fail
  have HJ := Lib.hid hJ
  have HY := Lib.hid hY
  clear hJ hY k0 k1 k2
  gi_loopw [7] (fun _ wr => ∃ (pre : List ByteArray) (r : ByteArray), pre ++ partsB c r = partsB c s ∧ r.size + pre.length ≤ s.size ∧ J pre wr ∧ Boxed wr b0 9 (.string ⟨#[c]⟩) ∧ Boxed wr b1 9 (.string r) ∧ Boxed wr b2 3 (.int .i64 0))
    (fun _ wr => match wr.cell? ⟨b1, 0, none⟩ with | some (.string r) => r.size | _ => 0)
  case atStart => exact ⟨[], s, rfl, by simp, h0, hc0, hc1, hc2⟩
  case round =>
    obtain ⟨pre, r, hp, hsz, hJr, g0, g1, g2⟩ := hrel
    have k0 := g0.cell
    have k1 := g1.cell
    have k2 := g2.cell
    have f1 := g1.frozen
    have HP := Lib.hid hp
    clear hp
    have HIX := Lib.hid (Tryz.strings_Index_one r c wr)
    rcases partsB_step c r with ⟨h1, h2⟩ | ⟨i, h1, h2, h3⟩
    · rw [h1] at HIX
      have HPC := Lib.hid h2
      clear h1 h2
      obtain ⟨fn, tmps, assign, body, hy, hR⟩ := HY.out pre r r wr hJr (by omega) (by omega) g0 g1 g2
      gi_wp2_with (refine ⟨trivial, ?_⟩; gi_at_call 181; refine (callsIn_wide.2 HIX.out).mono ?_; rintro e W1 ⟨rfl, rfl⟩)
      refine hR.mono ?_
      rintro e W3 ⟨rfl, hJ3, _, _, _⟩
      gi_wp2
      go_end0
      have e := HP.out
      rw [HPC.out] at e
      exact ⟨⟨_, rfl⟩, e ▸ hJ3⟩
    · rw [h1] at HIX
      have HPC := Lib.hid h3
      clear h1 h3
      have hx0 : (i : Int) ≤ (r.size : Int) := by omega
      have hx1 : (i : Int) + 1 ≤ (r.size : Int) := by omega
      obtain ⟨fn, tmps, assign, body, hy, hR⟩ := HY.out pre (r.extract 0 i) r wr hJr (by omega) (by rw [ByteArray.size_extract]; omega) g0 g1 g2
      gi_wp2_with (refine ⟨trivial, ?_⟩; gi_at_call 181; refine (callsIn_wide.2 HIX.out).mono ?_; rintro e W1 ⟨rfl, rfl⟩)
      refine hR.mono ?_
      rintro e W3 ⟨rfl, hJ3, j0, j1, j2⟩
      have g0' : Boxed W3 b0 9 (.string ⟨#[c]⟩) := j0.trans g0
      have g1' : Boxed W3 b1 9 (.string r) := j1.trans g1
      have g2' : Boxed W3 b2 3 (.int .i64 0) := j2.trans g2
      have k0' := g0'.cell
      have k1' := g1'.cell
      have k2' := g2'.cell
      have f1' := g1'.frozen
      clear j0 j1 j2
      gi_wp2
      go_roundw
      case rel =>
        refine ⟨pre ++ [r.extract 0 i], r.extract (i + 1) r.size, ?_, ?_, HJ.out _ _ _ _ hJ3 g1', g0'.other h01 _, g1'.set _, g2'.other (Ne.symm h12) _⟩
        · rw [← HP.out, HPC.out]; simp
        · rw [ByteArray.size_extract]; simp; omega
      case measure =>
        rw [k1, (g1'.set _).cell]
        simp [ByteArray.size_extract]; omega
end Go.Proofs.YtnfccckodgknjaaGreatDoor

namespace Go.Proofs.YtnfccckodgknjaaGreatDoor
open Go.RowKit Go.Shelf
attribute [local go_sem] Oper.semAt_some
set_option maxHeartbeats 1000000
set_option maxRecDepth 100000

/-- How the body of a round over the parts is left. -/
def partPost (B b0 b1 b2 : Nat) (I : List ByteArray → World → Prop) (xs : List ByteArray) (W : World) : Exit → Act → World → Prop
  | .normal, _, W' => KeepsFrom B W W' ∧ W'.heap[b0]? = W.heap[b0]? ∧ W'.heap[b1]? = W.heap[b1]? ∧ W'.heap[b2]? = W.heap[b2]? ∧ I xs W'
  | _, _, _ => False

theorem range_parts {n : Nat} {g : Operand} {ps : Array Tmp} {assign body : Code} {Q : Exit → Act → World → Prop} {a : Act} {w : World} (h1 : 1 ≤ n - 1) (b0 b1 b2 : Nat) (c : UInt8) (s : ByteArray) (hs : s.size ≤ 100000)
    (hg : a.eval g = .func (.func 261) #[] #[.pointer (some ⟨b0, 0, none⟩), .pointer (some ⟨b1, 0, none⟩), .pointer (some ⟨b2, 0, none⟩)]) (hps : ps.size = 1) (h01 : b0 ≠ b1) (h12 : b1 ≠ b2)
    (hc0 : Boxed w b0 9 (.string ⟨#[c]⟩)) (hc1 : Boxed w b1 9 (.string s)) (hc2 : Boxed w b2 3 (.int .i64 0))
    (I : List ByteArray → World → Prop) (hI : OwnFrom w.heap.size I) (hS : ∀ xs A r x, I xs A → Boxed A b1 9 (.string r) → I xs (A.setCell ⟨b1, 0, none⟩ (.string x))) (h0 : I [] w) (a₁ : ByteArray → Act)
    (hassign : ∀ (l : Nat) (x : ByteArray) (W : World) (K : Act → World → Prop), K (a₁ x) W →
      assign.wpIn (Fence.wide.inRound l) (n - 1 - 1) Tryz.prog (Exit.then K (fun _ _ _ => False)) { tmps := (ps.zip #[.string x]).foldl (fun t (p, v) => t.setIfInBounds p v) a.tmps, defers := [] } W)
    (hbody : ∀ (l : Nat) (pre : List ByteArray) (x r : ByteArray) (W : World), I pre W → pre.length ≤ s.size → x.size ≤ s.size → w.heap.size ≤ W.heap.size → Boxed W b0 9 (.string ⟨#[c]⟩) → Boxed W b1 9 (.string r) → Boxed W b2 3 (.int .i64 0) →
      body.wpIn (Fence.wide.inRound l) (n - 1 - 1) Tryz.prog (partPost w.heap.size b0 b1 b2 I (pre ++ [x]) W) (a₁ x) W)
    (hdone : ∀ (D : Nat) (W : World), w.heap.size ≤ D → I (partsB c s) W → W.heap[D]? = some (.deferred (some [])) → Q .normal { a with defers := { target := .collected D, args := #[] } :: a.defers } W) :
    (Code.rangeFunc g ps assign body).wpIn Fence.wide n Tryz.prog Q a w := by
  have l0 := hc0.lt
  have l1 := hc1.lt
  have l2 := hc2.lt
  refine wpIn_rangeFunc ?_
  intro fn hfn
  rw [show Fence.wide.round = none from rfl]
  obtain ⟨rec, hrec⟩ : ∃ rec : LoopState → Loop, rec = fun st => { state := st, pending := none, fn, tmps := a.tmps, params := ps, assign, body, defers := w.heap.size } := ⟨_, rfl⟩
  obtain ⟨V, hV⟩ : ∃ V, (w.alloc (.deferred (some []))).alloc (.loop (rec .ready)) = V := ⟨_, rfl⟩
  have sz : V.heap.size = w.heap.size + 2 := by rw [← hV]; simp
  have vl : V.heap[w.heap.size + 1]? = some (.loop (rec .ready)) := by
    rw [← hV]
    have := World.alloc_heap_new (w.alloc (.deferred (some []))) (.loop (rec .ready))
    rwa [World.size_alloc] at this
  have vd : V.heap[w.heap.size]? = some (.deferred (some [])) := by
    rw [← hV]
    exact (Below.heap_alloc _ _ _ (by simp)).trans (World.alloc_heap_new w _)
  have vI : I [] V := by
    rw [← hV]
    exact hI _ _ _ _ (hI _ _ _ _ h0 (World.grownBy_alloc w _ none) (fun r e => by cases e)) (World.grownBy_alloc _ _ none) (fun r e => by cases e)
  have v0 : Boxed V b0 9 (.string ⟨#[c]⟩) := by rw [← hV]; exact (hc0.alloc _).alloc _
  have v1 : Boxed V b1 9 (.string s) := by rw [← hV]; exact (hc1.alloc _).alloc _
  have v2 : Boxed V b2 3 (.int .i64 0) := by rw [← hV]; exact (hc2.alloc _).alloc _
  refine ⟨w.heap.size + 1, [{ target := .collected w.heap.size, args := #[] }], V, { target := .fn (.func 261) #[.pointer (some ⟨b0, 0, none⟩), .pointer (some ⟨b1, 0, none⟩), .pointer (some ⟨b2, 0, none⟩)], args := #[.func (.yield (w.heap.size + 1)) #[] #[]] }, V, 261,
    #[.func (.yield (w.heap.size + 1)) #[] #[], .pointer (some ⟨b0, 0, none⟩), .pointer (some ⟨b1, 0, none⟩), .pointer (some ⟨b2, 0, none⟩)], V, ?_, ?_, ?_, ?_, fun _ => by omega, ?_⟩
  · rw [← hV, hrec]; exact run_enterLoop_outer _ _ _ _ _
  · simp only [resolve, hg]
    simp [go_sem]
  · intro f' _; trivial
  · simp [invoke, go_sem]
  · refine (split_in (n - 1) h1 (w.heap.size + 1) b0 b1 b2 c s hs
      (fun pre W => I pre W ∧ w.heap.size ≤ W.heap.size ∧ W.heap[w.heap.size + 1]? = some (.loop (rec .ready)) ∧ W.heap[w.heap.size]? = some (.deferred (some []))) V h01 h12 ?_ ?_ v0 v1 v2 ⟨vI, by omega, vl, vd⟩).mono ?_
    · rintro xs A r x ⟨i1, i2, i3, i4⟩ hbx
      have other : ∀ k, k ≠ b1 → (A.setCell ⟨b1, 0, none⟩ (.string x)).heap[k]? = A.heap[k]? := fun k hk => Below.heap_setCell _ _ _ k hk
      exact ⟨hS _ _ _ _ i1 hbx, Nat.le_trans i2 (by simp), (other _ (by omega)).trans i3, (other _ (by omega)).trans i4⟩
    · rintro pre x r W ⟨i1, i2, i3, i4⟩ hlen hx y0 y1 y2
      have hlt : w.heap.size + 1 < W.heap.size := (Array.getElem?_eq_some_iff.1 i3).1
      have hy := run_yield (P := Tryz.prog) (args := #[.string x]) i3 (by rw [hrec]; exact hps.symm)
      rw [hrec] at hy
      refine ⟨fn, _, assign, body, hy, roundIn_of_wpIn hfn (hassign _ x W _ ⟨_, run_beginRound i3 (by rw [hrec]), ?_⟩)⟩
      obtain ⟨W2, hW2⟩ : ∃ W2, W.putObj (w.heap.size + 1) (.loop { rec .ready with state := .busy }) = W2 := ⟨_, rfl⟩
      have p1 : W2.heap[w.heap.size + 1]? = some (.loop { rec .ready with state := .busy }) := by rw [← hW2]; exact World.putObj_heap_same hlt
      have p0 : ∀ k, k ≠ w.heap.size + 1 → W2.heap[k]? = W.heap[k]? := by intro k hk; rw [← hW2]; exact World.putObj_heap_other hk
      have p2 : I pre W2 := by
        rw [← hW2]
        exact hI _ _ _ _ i1 (grownBy_putObj' W _ _) (fun r e => by cases e; exact ⟨by omega, _, i3, rfl⟩)
      have p3 : W2.heap.size = W.heap.size := by rw [← hW2]; simp
      rw [hW2]
      refine wpIn_mono (hbody _ pre x r W2 p2 hlen hx (by omega) ((p0 _ (by omega)).trans y0) ((p0 _ (by omega)).trans y1) ((p0 _ (by omega)).trans y2)) ?_
      rintro e a3 W3 hp
      cases e with
      | normal =>
        obtain ⟨k1, k2, k3, k4, k5⟩ := hp
        have q1 := k1.same _ _ (by omega) p1 rfl
        have hlt3 := (Array.getElem?_eq_some_iff.1 q1).1
        have hr := run_endRound (P := Tryz.prog) none q1
        have other : ∀ k, k ≠ w.heap.size + 1 → (W3.putObj (w.heap.size + 1) (.loop (rec .ready))).heap[k]? = W3.heap[k]? := fun k hk => World.putObj_heap_other hk
        refine ⟨_, _, ?_, rfl, ⟨hI _ _ _ _ k5 (grownBy_putObj' W3 (w.heap.size + 1) (.loop (rec .ready))) (fun r e => by cases e; exact ⟨by omega, _, q1, rfl⟩), ?_, World.putObj_heap_same hlt3, ?_⟩, ?_, ?_, ?_⟩
        · rw [hrec] at hr ⊢; exact hr
        · have := k1.size; simp; omega
        · exact (other _ (by omega)).trans (k1.same _ _ (Nat.le_refl _) ((p0 _ (by omega)).trans i4) rfl)
        · exact (other _ (by omega)).trans (k2.trans (p0 _ (by omega)))
        · exact (other _ (by omega)).trans (k3.trans (p0 _ (by omega)))
        · exact (other _ (by omega)).trans (k4.trans (p0 _ (by omega)))
      | ret => exact hp.elim
      | exit id => exact hp.elim
      | goto t => exact hp.elim
      | panic ch => exact hp.elim
      | outgrown => exact hp.elim
    · rintro e W2 ⟨⟨v, rfl⟩, i1, i2, i3, i4⟩
      have he := run_endLoop (P := Tryz.prog) i3 (by rw [hrec]; simp)
      rw [hrec] at he
      refine ⟨none, _, he, ?_⟩
      refine hdone _ _ (Nat.le_refl _) (hI _ _ _ _ i1 (grownBy_putObj' W2 (w.heap.size + 1) _) (fun r e => by cases e; exact ⟨by omega, _, i3, rfl⟩)) ((World.putObj_heap_other (by omega)).trans i4)
end Go.Proofs.YtnfccckodgknjaaGreatDoor
