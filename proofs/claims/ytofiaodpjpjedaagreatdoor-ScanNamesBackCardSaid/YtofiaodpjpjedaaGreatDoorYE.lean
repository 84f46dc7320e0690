/-
  A range over the sequence of the parts, where a round may end it.
  A range over an iterator with blocks of its own: what lies ahead of its start may be written by the rounds.
  The document's own prefix test.
  The document's own reading of the table: where entries and names end, and their values.
  The document's own searches of the table.
  Whether some name begins with a string.
  The document's own entries, names and prefixes.
  The names in their order: what a prefix of the parts tells.
  The longest name of a name with anything behind it.
  TextTable: the walk.
  Names: the sequence of the names and their values.
  Names of the table are read back: those that end with ";" whatever follows, the others if a space follows. No program in sight.
  Data of comments is read back; what any comment is read as is such data. No program in sight.
  ScanCommentsBack: the data of a comment is read back, and what any comment is read as is such data.
  A call of Reference whose answer is known.
  ScanNamesBack: the walk.
  The frame of the rows that list the table of the controls as well.
-/
import Derived.Test.YtofiaodpjpjedaaGreatDoorY25
import Derived.Test.YtofiaodpjpjedaaGreatDoorY27
import Derived.Test.YtofiaodpjpjedaaGreatDoorY29
import Derived.IntWalk
import Derived.Stop.RegionWithIn
import Derived.Test.YtofiaodpjpjedaaGreatDoorY26
import Derived.Test.YtofiaodpjpjedaaGreatDoorY30
import Derived.Test.YtofiaodpjpjedaaGreatDoorY03
import Derived.Test.YtofiaodpjpjedaaGreatDoorKs3
import Derived.Test.YtofiaodpjpjedaaGreatDoorY28
namespace Go.Proofs.YtofiaodpjpjedaaGreatDoor
open Go.RowKit Go.Shelf
attribute [local go_sem] Oper.semAt_some
set_option maxHeartbeats 1000000
set_option maxRecDepth 100000

theorem splitSeq_at (s : ByteArray) (c : UInt8) (w : World) :
    Calls Tryz.prog 97 #[.string s, .string ⟨#[c]⟩] w fun e w' => ∃ b0 b1 b2, e = .returned (.func (.func 154) #[] #[.pointer (some ⟨b0, 0, none⟩), .pointer (some ⟨b1, 0, none⟩), .pointer (some ⟨b2, 0, none⟩)]) ∧
      Boxed w' b0 9 (.string ⟨#[c]⟩) ∧ Boxed w' b1 9 (.string s) ∧ Boxed w' b2 3 (.int .i64 0) ∧ b0 ≠ b1 ∧ b1 ≠ b2 ∧ w.heap.size ≤ b0 ∧ w.heap.size ≤ b1 ∧ w.heap.size ≤ b2 ∧ Below w.heap.size w w' := by
  go_enter Tryz.func97, Tryz.ntmps97
  go_wp2
  refine bodyPost_ret (results_tmp rfl _ _ _) rfl ?_
  exact ⟨w.heap.size + 1, w.heap.size, w.heap.size + 1 + 1, rfl, boxed_new _ _ _ _ (by simp) |>.alloc _, ((Boxed.new _ _ _).alloc _).alloc _, boxed_new _ _ _ _ (by simp), by omega, by omega, by omega, Nat.le_refl _, by omega, by (repeat' (first | (with_reducible exact Below.refl _ _) | (with_reducible assumption) | (with_reducible refine below_alloc ?_ _) | (with_reducible refine Below.drew ?_) | (with_reducible refine _root_.Go.below_drewN ?_ _) | (with_reducible refine Below.setCell ?_ ?_ _) | go_size | (refine below_next ?_ (by assumption))))⟩
theorem split_stops (n : Nat) (hn : 1 ≤ n) (l b0 b1 b2 : Nat) (c : UInt8) (s : ByteArray) (hs : s.size ≤ 100000) (J Jx : List ByteArray → World → Prop) (W : World) (h01 : b0 ≠ b1) (h12 : b1 ≠ b2)
    (hJ : ∀ xs A r x, J xs A → Boxed A b1 9 (.string r) → J xs (A.setCell ⟨b1, 0, none⟩ (.string x)))
    (hY : ∀ pre x r W1, J pre W1 → pre ++ [x] <+: partsB c s → pre.length ≤ s.size → x.size ≤ s.size → Boxed W1 b0 9 (.string ⟨#[c]⟩) → Boxed W1 b1 9 (.string r) → Boxed W1 b2 3 (.int .i64 0) → YieldAt Fence.wide (n - 1) Tryz.prog l #[.string x] W1 fun e W' =>
      (e = .returned (.bool true) ∧ J (pre ++ [x]) W' ∧ W'.heap[b0]? = W1.heap[b0]? ∧ W'.heap[b1]? = W1.heap[b1]? ∧ W'.heap[b2]? = W1.heap[b2]?) ∨ (e = .returned (.bool false) ∧ Jx (pre ++ [x]) W'))
    (hc0 : Boxed W b0 9 (.string ⟨#[c]⟩)) (hc1 : Boxed W b1 9 (.string s)) (hc2 : Boxed W b2 3 (.int .i64 0)) (h0 : J [] W) :
    CallsIn Fence.wide n Tryz.prog 154 #[.func (.yield l) #[] #[], .pointer (some ⟨b0, 0, none⟩), .pointer (some ⟨b1, 0, none⟩), .pointer (some ⟨b2, 0, none⟩)] W fun e W' => (∃ v, e = .returned v) ∧ (J (partsB c s) W' ∨ ∃ pre, pre <+: partsB c s ∧ Jx pre W') := by
  refine callsIn_of_wp Tryz.func154 rfl trivial ?_ rfl
  simp only [Tryz.ntmps154, List.size_toArray, List.length_cons, List.length_nil, Nat.reduceAdd, Nat.reduceSub, Array.replicate_succ, Array.replicate_zero, List.push_toArray, List.append_toArray, List.nil_append, List.cons_append]
  have k0 := hc0.cell
  have k1 := hc1.cell
  have k2 := hc2.cell
  gi_wp2_with fail
  have HJ := Lib.hid hJ
  have HY := Lib.hid hY
  clear hJ hY k0 k1 k2
  gi_loopw [7] (fun _ wr => ∃ (pre : List ByteArray) (r : ByteArray), pre ++ partsB c r = partsB c s ∧ r.size + pre.length ≤ s.size ∧ J pre wr ∧ Boxed wr b0 9 (.string ⟨#[c]⟩) ∧ Boxed wr b1 9 (.string r) ∧ Boxed wr b2 3 (.int .i64 0))
    (fun _ wr => match wr.cell? ⟨b1, 0, none⟩ with | some (.string r) => r.size | _ => 0)
  case atStart => exact ⟨[], s, rfl, by simp, h0, hc0, hc1, hc2⟩
  case round =>
    obtain ⟨pre, r, hp, hsz, hJr, g0, g1, g2⟩ := hrel
    have k0 := g0.cell
    have k1 := g1.cell
    have k2 := g2.cell
    have f1 := g1.frozen
    have HP := Lib.hid hp
    clear hp
    have HIX := Lib.hid (Tryz.strings_Index_one r c wr)
    rcases partsB_step c r with ⟨h1, h2⟩ | ⟨i, h1, h2, h3⟩
    · rw [h1] at HIX
      have HPC := Lib.hid h2
      clear h1 h2
      obtain ⟨fn, tmps, assign, body, hy, hR⟩ := HY.out pre r r wr hJr (by rw [← HP.out, HPC.out]; exact List.prefix_refl _) (by omega) (by omega) g0 g1 g2
      gi_wp2_with (refine ⟨trivial, ?_⟩; gi_at_call 156; refine (callsIn_wide.2 HIX.out).mono ?_; rintro e W1 ⟨rfl, rfl⟩)
      refine hR.mono ?_
      rintro e W3 (⟨rfl, hJ3, _, _, _⟩ | ⟨rfl, hJ3⟩)
      · gi_wp2
        go_end0
        have e := HP.out
        rw [HPC.out] at e
        exact ⟨⟨_, rfl⟩, .inl (e ▸ hJ3)⟩
      · gi_wp2
        go_end0
        have e := HP.out
        rw [HPC.out] at e
        exact ⟨⟨_, rfl⟩, .inr ⟨_, ⟨[], by rw [e]; simp⟩, hJ3⟩⟩
    · rw [h1] at HIX
      have HPC := Lib.hid h3
      clear h1 h3
      have hx0 : (i : Int) ≤ (r.size : Int) := by omega
      have hx1 : (i : Int) + 1 ≤ (r.size : Int) := by omega
      obtain ⟨fn, tmps, assign, body, hy, hR⟩ := HY.out pre (r.extract 0 i) r wr hJr (by rw [← HP.out, HPC.out]; exact ⟨partsB c (r.extract (i + 1) r.size), by simp⟩) (by omega) (by rw [ByteArray.size_extract]; omega) g0 g1 g2
      gi_wp2_with (refine ⟨trivial, ?_⟩; gi_at_call 156; refine (callsIn_wide.2 HIX.out).mono ?_; rintro e W1 ⟨rfl, rfl⟩)
      refine hR.mono ?_
      rintro e W3 (⟨rfl, hJ3, j0, j1, j2⟩ | ⟨rfl, hJ3⟩)
      rotate_left
      · gi_wp2
        refine bodyPost_ret (results_none rfl _ _ _) rfl ?_
        exact ⟨⟨_, rfl⟩, .inr ⟨_, ⟨partsB c (r.extract (i + 1) r.size), by rw [← HP.out, HPC.out]; simp⟩, hJ3⟩⟩
      have g0' : Boxed W3 b0 9 (.string ⟨#[c]⟩) := j0.trans g0
      have g1' : Boxed W3 b1 9 (.string r) := j1.trans g1
      have g2' : Boxed W3 b2 3 (.int .i64 0) := j2.trans g2
      have k0' := g0'.cell
      have k1' := g1'.cell
      have k2' := g2'.cell
      have f1' := g1'.frozen
      clear j0 j1 j2
      gi_wp2
      go_roundw
      case rel =>
        refine ⟨pre ++ [r.extract 0 i], r.extract (i + 1) r.size, ?_, ?_, HJ.out _ _ _ _ hJ3 g1', g0'.other h01 _, g1'.set _, g2'.other (Ne.symm h12) _⟩
        · rw [← HP.out, HPC.out]; simp
        · rw [ByteArray.size_extract]; simp; omega
      case measure =>
        rw [k1, (g1'.set _).cell]
        simp [ByteArray.size_extract]; omega

/-- How the body of a round over the parts is left. -/
def stopPost (B b0 b1 b2 : Nat) (I Ix : List ByteArray → World → Prop) (xs : List ByteArray) (W : World) : Exit → Act → World → Prop
  | .normal, _, W' => KeepsFrom B W W' ∧ W'.heap[b0]? = W.heap[b0]? ∧ W'.heap[b1]? = W.heap[b1]? ∧ W'.heap[b2]? = W.heap[b2]? ∧ I xs W'
  | .ret, _, W' => KeepsFrom B W W' ∧ Ix xs W'
  | _, _, _ => False

theorem range_stops {n : Nat} {g : Operand} {ps : Array Tmp} {assign body : Code} {Q : Exit → Act → World → Prop} {a : Act} {w : World} (h1 : 1 ≤ n - 1) (b0 b1 b2 : Nat) (c : UInt8) (s : ByteArray) (hs : s.size ≤ 100000)
    (hg : a.eval g = .func (.func 154) #[] #[.pointer (some ⟨b0, 0, none⟩), .pointer (some ⟨b1, 0, none⟩), .pointer (some ⟨b2, 0, none⟩)]) (hps : ps.size = 1) (h01 : b0 ≠ b1) (h12 : b1 ≠ b2)
    (hc0 : Boxed w b0 9 (.string ⟨#[c]⟩)) (hc1 : Boxed w b1 9 (.string s)) (hc2 : Boxed w b2 3 (.int .i64 0))
    (I Ix : List ByteArray → World → Prop) (hI : OwnFrom w.heap.size I) (hIx : OwnFrom w.heap.size Ix) (hS : ∀ xs A r x, I xs A → Boxed A b1 9 (.string r) → I xs (A.setCell ⟨b1, 0, none⟩ (.string x))) (h0 : I [] w) (a₁ : ByteArray → Act)
    (hassign : ∀ (l : Nat) (x : ByteArray) (W : World) (K : Act → World → Prop), K (a₁ x) W →
      assign.wpIn (Fence.wide.inRound l) (n - 1 - 1) Tryz.prog (Exit.then K (fun _ _ _ => False)) { tmps := (ps.zip #[.string x]).foldl (fun t (p, v) => t.setIfInBounds p v) a.tmps, defers := [] } W)
    (hbody : ∀ (l : Nat) (pre : List ByteArray) (x r : ByteArray) (W : World), I pre W → pre ++ [x] <+: partsB c s → pre.length ≤ s.size → x.size ≤ s.size → w.heap.size ≤ W.heap.size → Boxed W b0 9 (.string ⟨#[c]⟩) → Boxed W b1 9 (.string r) → Boxed W b2 3 (.int .i64 0) →
      body.wpIn (Fence.wide.inRound l) (n - 1 - 1) Tryz.prog (stopPost w.heap.size b0 b1 b2 I Ix (pre ++ [x]) W) (a₁ x) W)
    (hdone : ∀ (D : Nat) (W : World), w.heap.size ≤ D → I (partsB c s) W → W.heap[D]? = some (.deferred (some [])) → Q .normal { a with defers := { target := .collected D, args := #[] } :: a.defers } W)
    (hstop : ∀ (D : Nat) (pre : List ByteArray) (W : World), w.heap.size ≤ D → pre <+: partsB c s → Ix pre W → W.heap[D]? = some (.deferred (some [])) → Code.ret.wpIn Fence.wide n Tryz.prog Q { a with defers := { target := .collected D, args := #[] } :: a.defers } W) :
    (Code.rangeFunc g ps assign body).wpIn Fence.wide n Tryz.prog Q a w := by
  have l0 := hc0.lt
  have l1 := hc1.lt
  have l2 := hc2.lt
  refine wpIn_rangeFunc ?_
  intro fn hfn
  rw [show Fence.wide.round = none from rfl]
  obtain ⟨rec, hrec⟩ : ∃ rec : LoopState → Option Code → Loop, rec = fun st pe => { state := st, pending := pe, fn, tmps := a.tmps, params := ps, assign, body, defers := w.heap.size } := ⟨_, rfl⟩
  obtain ⟨V, hV⟩ : ∃ V, (w.alloc (.deferred (some []))).alloc (.loop (rec .ready none)) = V := ⟨_, rfl⟩
  have sz : V.heap.size = w.heap.size + 2 := by rw [← hV]; simp
  have vl : V.heap[w.heap.size + 1]? = some (.loop (rec .ready none)) := by
    rw [← hV]
    have := World.alloc_heap_new (w.alloc (.deferred (some []))) (.loop (rec .ready none))
    rwa [World.size_alloc] at this
  have vd : V.heap[w.heap.size]? = some (.deferred (some [])) := by
    rw [← hV]
    exact (Below.heap_alloc _ _ _ (by simp)).trans (World.alloc_heap_new w _)
  have vI : I [] V := by
    rw [← hV]
    exact hI _ _ _ _ (hI _ _ _ _ h0 (World.grownBy_alloc w _ none) (fun r e => by cases e)) (World.grownBy_alloc _ _ none) (fun r e => by cases e)
  have v0 : Boxed V b0 9 (.string ⟨#[c]⟩) := by rw [← hV]; exact (hc0.alloc _).alloc _
  have v1 : Boxed V b1 9 (.string s) := by rw [← hV]; exact (hc1.alloc _).alloc _
  have v2 : Boxed V b2 3 (.int .i64 0) := by rw [← hV]; exact (hc2.alloc _).alloc _
  refine ⟨w.heap.size + 1, [{ target := .collected w.heap.size, args := #[] }], V, { target := .fn (.func 154) #[.pointer (some ⟨b0, 0, none⟩), .pointer (some ⟨b1, 0, none⟩), .pointer (some ⟨b2, 0, none⟩)], args := #[.func (.yield (w.heap.size + 1)) #[] #[]] }, V, 154,
    #[.func (.yield (w.heap.size + 1)) #[] #[], .pointer (some ⟨b0, 0, none⟩), .pointer (some ⟨b1, 0, none⟩), .pointer (some ⟨b2, 0, none⟩)], V, ?_, ?_, ?_, ?_, fun _ => by omega, ?_⟩
  · rw [← hV, hrec]; exact run_enterLoop_outer _ _ _ _ _
  · simp only [resolve, hg]
    simp [go_sem]
  · intro f' _; trivial
  · simp [invoke, go_sem]
  · refine (split_stops (n - 1) h1 (w.heap.size + 1) b0 b1 b2 c s hs
      (fun pre W => I pre W ∧ w.heap.size ≤ W.heap.size ∧ W.heap[w.heap.size + 1]? = some (.loop (rec .ready none)) ∧ W.heap[w.heap.size]? = some (.deferred (some [])))
      (fun pre W => Ix pre W ∧ w.heap.size ≤ W.heap.size ∧ W.heap[w.heap.size + 1]? = some (.loop (rec .done (some .ret))) ∧ W.heap[w.heap.size]? = some (.deferred (some []))) V h01 h12 ?_ ?_ v0 v1 v2 ⟨vI, by omega, vl, vd⟩).mono ?_
    · rintro xs A r x ⟨i1, i2, i3, i4⟩ hbx
      have other : ∀ k, k ≠ b1 → (A.setCell ⟨b1, 0, none⟩ (.string x)).heap[k]? = A.heap[k]? := fun k hk => Below.heap_setCell _ _ _ k hk
      exact ⟨hS _ _ _ _ i1 hbx, Nat.le_trans i2 (by simp), (other _ (by omega)).trans i3, (other _ (by omega)).trans i4⟩
    · rintro pre x r W ⟨i1, i2, i3, i4⟩ hpx hlen hx y0 y1 y2
      have hlt : w.heap.size + 1 < W.heap.size := (Array.getElem?_eq_some_iff.1 i3).1
      have hy := run_yield (P := Tryz.prog) (args := #[.string x]) i3 (by rw [hrec]; exact hps.symm)
      rw [hrec] at hy
      refine ⟨fn, _, assign, body, hy, roundIn_of_wpIn hfn (hassign _ x W _ ⟨_, run_beginRound i3 (by rw [hrec]), ?_⟩)⟩
      obtain ⟨W2, hW2⟩ : ∃ W2, W.putObj (w.heap.size + 1) (.loop { rec .ready none with state := .busy }) = W2 := ⟨_, rfl⟩
      have p1 : W2.heap[w.heap.size + 1]? = some (.loop { rec .ready none with state := .busy }) := by rw [← hW2]; exact World.putObj_heap_same hlt
      have p0 : ∀ k, k ≠ w.heap.size + 1 → W2.heap[k]? = W.heap[k]? := by intro k hk; rw [← hW2]; exact World.putObj_heap_other hk
      have p2 : I pre W2 := by
        rw [← hW2]
        exact hI _ _ _ _ i1 (grownBy_putObj' W _ _) (fun r e => by cases e; exact ⟨by omega, _, i3, rfl⟩)
      have p3 : W2.heap.size = W.heap.size := by rw [← hW2]; simp
      rw [hW2]
      refine wpIn_mono (hbody _ pre x r W2 p2 hpx hlen hx (by omega) ((p0 _ (by omega)).trans y0) ((p0 _ (by omega)).trans y1) ((p0 _ (by omega)).trans y2)) ?_
      rintro e a3 W3 hp
      cases e with
      | normal =>
        obtain ⟨k1, k2, k3, k4, k5⟩ := hp
        have q1 := k1.same _ _ (by omega) p1 rfl
        have hlt3 := (Array.getElem?_eq_some_iff.1 q1).1
        have hr := run_endRound (P := Tryz.prog) none q1
        have other : ∀ k, k ≠ w.heap.size + 1 → (W3.putObj (w.heap.size + 1) (.loop (rec .ready none))).heap[k]? = W3.heap[k]? := fun k hk => World.putObj_heap_other hk
        refine ⟨_, _, ?_, .inl ⟨rfl, ⟨hI _ _ _ _ k5 (grownBy_putObj' W3 (w.heap.size + 1) (.loop (rec .ready none))) (fun r e => by cases e; exact ⟨by omega, _, q1, rfl⟩), ?_, World.putObj_heap_same hlt3, ?_⟩, ?_, ?_, ?_⟩⟩
        · rw [hrec] at hr ⊢; exact hr
        · have := k1.size; simp; omega
        · exact (other _ (by omega)).trans (k1.same _ _ (Nat.le_refl _) ((p0 _ (by omega)).trans i4) rfl)
        · exact (other _ (by omega)).trans (k2.trans (p0 _ (by omega)))
        · exact (other _ (by omega)).trans (k3.trans (p0 _ (by omega)))
        · exact (other _ (by omega)).trans (k4.trans (p0 _ (by omega)))
      | ret =>
        obtain ⟨k1, k5⟩ := hp
        have q1 := k1.same _ _ (by omega) p1 rfl
        have hlt3 := (Array.getElem?_eq_some_iff.1 q1).1
        have hr := run_endRound (P := Tryz.prog) (some .ret) q1
        refine ⟨_, _, ?_, .inr ⟨rfl, hIx _ _ _ _ k5 (grownBy_putObj' W3 (w.heap.size + 1) (.loop (rec .done (some .ret)))) (fun r e => by cases e; exact ⟨by omega, _, q1, rfl⟩), ?_, World.putObj_heap_same hlt3, ?_⟩⟩
        · rw [hrec] at hr ⊢; exact hr
        · have := k1.size; simp; omega
        · exact (World.putObj_heap_other (by omega)).trans (k1.same _ _ (Nat.le_refl _) ((p0 _ (by omega)).trans i4) rfl)
      | exit id => exact hp.elim
      | goto t => exact hp.elim
      | panic ch => exact hp.elim
      | outgrown => exact hp.elim
    · rintro e W2 ⟨⟨v, rfl⟩, ⟨i1, i2, i3, i4⟩ | ⟨pre, hpre, i1, i2, i3, i4⟩⟩
      · have he := run_endLoop (P := Tryz.prog) i3 (by rw [hrec]; simp)
        rw [hrec] at he
        refine ⟨none, _, he, ?_⟩
        refine hdone _ _ (Nat.le_refl _) (hI _ _ _ _ i1 (grownBy_putObj' W2 (w.heap.size + 1) _) (fun r e => by cases e; exact ⟨by omega, _, i3, rfl⟩)) ((World.putObj_heap_other (by omega)).trans i4)
      · have he := run_endLoop (P := Tryz.prog) i3 (by rw [hrec]; simp)
        rw [hrec] at he
        refine ⟨some .ret, _, he, ?_⟩
        exact hstop _ _ _ (Nat.le_refl _) hpre (hIx _ _ _ _ i1 (grownBy_putObj' W2 (w.heap.size + 1) _) (fun r e => by cases e; exact ⟨by omega, _, i3, rfl⟩)) ((World.putObj_heap_other (by omega)).trans i4)
end Go.Proofs.YtofiaodpjpjedaaGreatDoor

namespace Go.Proofs.YtofiaodpjpjedaaGreatDoor
open Go.RowKit Go.Shelf
set_option maxHeartbeats 1000000
set_option maxRecDepth 100000

/-- What lies at or behind B is as it lay. -/
structure KeepHi (B : Nat) (W W' : World) : Prop where
  size : W.heap.size ≤ W'.heap.size
  same : ∀ k, B ≤ k → k < W.heap.size → W'.heap[k]? = W.heap[k]?
theorem KeepHi.refl (B : Nat) (W : World) : KeepHi B W W := ⟨Nat.le_refl _, fun _ _ _ => rfl⟩
theorem KeepHi.trans {B : Nat} {X Y Z : World} (h : KeepHi B X Y) (k : KeepHi B Y Z) : KeepHi B X Z :=
  ⟨Nat.le_trans h.size k.size, fun i hB hi => (k.same i hB (Nat.lt_of_lt_of_le hi h.size)).trans (h.same i hB hi)⟩
theorem KeepHi.below {B : Nat} {X Y : World} (h : Below X.heap.size X Y) : KeepHi B X Y := ⟨h.size, fun i _ hi => h.block i hi⟩
theorem KeepHi.up {B C : Nat} {X Y : World} (h : KeepHi B X Y) (hc : B ≤ C) : KeepHi C X Y := ⟨h.size, fun i hB hi => h.same i (Nat.le_trans hc hB) hi⟩
theorem KeepHi.from {B : Nat} {X Y : World} (h : KeepHi B X Y) : KeepsFrom B X Y := ⟨h.size, fun k _ hB hk _ => (h.same k hB (Array.getElem?_eq_some_iff.1 hk).1).trans hk⟩

/-- What speaks of no block at or behind B. -/
def Far (B : Nat) (J : List ByteArray → World → Prop) : Prop := ∀ s A A' row, J s A → A.grownBy A' row → (∀ r, row = some r → B ≤ r) → J s A'
theorem Far.below {B : Nat} {J : List ByteArray → World → Prop} (h : Far B J) {s : List ByteArray} {X Y : World} (hj : J s X) (hb : Below X.heap.size X Y) : J s Y :=
  h s X Y none hj ⟨hb.os, hb.tape, hb.output, hb.size, fun i hi _ => hb.block i hi⟩ (fun r e => by cases e)

/-- The contract of such an iterator. -/
def SeqFar (n : Nat) (gf : Nat) (lb : Array Value) (encs : ByteArray → Array Value) (M : World → Prop) (xs : List ByteArray) : Prop :=
  ∀ (l : Nat) (J Jx : List ByteArray → World → Prop) (W : World), (∀ pre A, J pre A → M A) → Far W.heap.size J → Far W.heap.size Jx →
    (∀ pre x W1, J pre W1 → pre ++ [x] <+: xs → W.heap.size ≤ W1.heap.size → YieldAt Fence.wide (n - 1) Tryz.prog l (encs x) W1 fun e W' =>
      ∃ b : Bool, e = .returned (.bool b) ∧ KeepHi W.heap.size W1 W' ∧ ((b = true ∧ J (pre ++ [x]) W') ∨ (b = false ∧ Jx (pre ++ [x]) W'))) →
    J [] W →
    CallsIn Fence.wide n Tryz.prog gf (#[.func (.yield l) #[] #[]] ++ lb) W fun e W' => (∃ v, e = .returned v) ∧ (J xs W' ∨ ∃ pre, pre <+: xs ∧ Jx pre W')

def farPost (B : Nat) (I : List ByteArray → World → Prop) (Ix : Code → List ByteArray → World → Prop) (xs : List ByteArray) (W : World) : Exit → Act → World → Prop
  | .normal, _, W' => KeepHi B W W' ∧ I xs W'
  | .ret, _, W' => KeepHi B W W' ∧ Ix .ret xs W'
  | .exit id, _, W' => KeepHi B W W' ∧ Ix (.exit id) xs W'
  | _, _, _ => False

theorem range_far {n : Nat} {g : Operand} {ps : Array Tmp} {assign body : Code} {Q : Exit → Act → World → Prop} {a : Act} {w : World} (h1 : 1 ≤ n) {gf : Nat} {lb : Array Value}
    (hg : a.eval g = .func (.func gf) #[] lb) (eg : ∀ args w, (callFunc gf args).run Tryz.prog w = .ok (.enter gf args) w) {encs : ByteArray → Array Value} {M : World → Prop} {xs : List ByteArray}
    (hseq : SeqFar (n - 1) gf lb encs M xs) (hps : ∀ x, (encs x).size = ps.size)
    (I : List ByteArray → World → Prop) (Ix : Code → List ByteArray → World → Prop) (hM : ∀ pre W, I pre W → M W) (hI : Far w.heap.size I) (hIx : ∀ c, Far w.heap.size (Ix c)) (h0 : I [] w) (a₁ : ByteArray → Act)
    (hassign : ∀ (l : Nat) (x : ByteArray) (W : World) (K : Act → World → Prop), K (a₁ x) W →
      assign.wpIn (Fence.wide.inRound l) (n - 1 - 1) Tryz.prog (Exit.then K (fun _ _ _ => False)) { tmps := (ps.zip (encs x)).foldl (fun t (p, v) => t.setIfInBounds p v) a.tmps, defers := [] } W)
    (hbody : ∀ (l : Nat) (pre : List ByteArray) (x : ByteArray) (W : World), I pre W → pre ++ [x] <+: xs → w.heap.size ≤ W.heap.size → body.wpIn (Fence.wide.inRound l) (n - 1 - 1) Tryz.prog (farPost w.heap.size I Ix (pre ++ [x]) W) (a₁ x) W)
    (hdone : ∀ (D : Nat) (W : World), w.heap.size ≤ D → I xs W → W.heap[D]? = some (.deferred (some [])) → Q .normal { a with defers := { target := .collected D, args := #[] } :: a.defers } W)
    (hstop : ∀ (D : Nat) (c : Code) (pre : List ByteArray) (W : World), w.heap.size ≤ D → pre <+: xs → Ix c pre W → W.heap[D]? = some (.deferred (some [])) → c.wpIn Fence.wide n Tryz.prog Q { a with defers := { target := .collected D, args := #[] } :: a.defers } W) :
    (Code.rangeFunc g ps assign body).wpIn Fence.wide n Tryz.prog Q a w := by
  refine wpIn_rangeFunc ?_
  intro fn hfn
  rw [show Fence.wide.round = none from rfl]
  obtain ⟨rec, hrec⟩ : ∃ rec : LoopState → Option Code → Loop, rec = fun st pe => { state := st, pending := pe, fn, tmps := a.tmps, params := ps, assign, body, defers := w.heap.size } := ⟨_, rfl⟩
  obtain ⟨W1, hW1⟩ : ∃ W1, (w.alloc (.deferred (some []))).alloc (.loop (rec .ready none)) = W1 := ⟨_, rfl⟩
  have sz : W1.heap.size = w.heap.size + 2 := by rw [← hW1]; simp
  have hL1 : W1.heap[w.heap.size + 1]? = some (.loop (rec .ready none)) := by
    rw [← hW1]; have := World.alloc_heap_new (w.alloc (.deferred (some []))) (.loop (rec .ready none)); rwa [World.size_alloc] at this
  have hK1 : W1.heap[w.heap.size]? = some (.deferred (some [])) := by
    rw [← hW1]; exact (Below.heap_alloc _ _ _ (by simp)).trans (World.alloc_heap_new w _)
  have hI1 : I [] W1 := by
    rw [← hW1]
    exact hI _ _ _ _ (hI _ _ _ _ h0 (World.grownBy_alloc w _ none) (fun r e => by cases e)) (World.grownBy_alloc _ _ none) (fun r e => by cases e)
  refine ⟨w.heap.size + 1, [{ target := .collected w.heap.size, args := #[] }], W1, { target := .fn (.func gf) lb, args := #[.func (.yield (w.heap.size + 1)) #[] #[]] }, W1, gf,
    #[.func (.yield (w.heap.size + 1)) #[] #[]] ++ lb, W1, ?_, ?_, ?_, ?_, fun _ => h1, ?_⟩
  · rw [← hW1, hrec]; exact run_enterLoop_outer _ _ _ _ _
  · simp only [resolve, hg]
    simp [go_sem]
  · intro f' _; trivial
  · simp [invoke, go_sem, eg]
  · refine (hseq (w.heap.size + 1)
      (fun pre W => I pre W ∧ W.heap[w.heap.size + 1]? = some (.loop (rec .ready none)) ∧ W.heap[w.heap.size]? = some (.deferred (some [])))
      (fun pre W => ∃ c, Ix c pre W ∧ W.heap[w.heap.size + 1]? = some (.loop (rec .done (some c))) ∧ W.heap[w.heap.size]? = some (.deferred (some [])))
      W1 (fun pre A h => hM _ _ h.1)
      (fun s A B row hs hg' hr => ⟨hI s A B row hs.1 hg' (fun r e => by have := hr r e; omega), (hg'.block _ (Array.getElem?_eq_some_iff.1 hs.2.1).1 (fun e => by have := hr _ e.symm; omega)).trans hs.2.1, (hg'.block _ (Array.getElem?_eq_some_iff.1 hs.2.2).1 (fun e => by have := hr _ e.symm; omega)).trans hs.2.2⟩)
      (fun s A B row hs hg' hr => by
        obtain ⟨c, hc, hl, hk⟩ := hs
        exact ⟨c, hIx c s A B row hc hg' (fun r e => by have := hr r e; omega), (hg'.block _ (Array.getElem?_eq_some_iff.1 hl).1 (fun e => by have := hr _ e.symm; omega)).trans hl, (hg'.block _ (Array.getElem?_eq_some_iff.1 hk).1 (fun e => by have := hr _ e.symm; omega)).trans hk⟩)
      ?_ ⟨hI1, hL1, hK1⟩).mono ?_
    · rintro pre x W ⟨hi, hl, hk⟩ hpx hsW
      have hlt : w.heap.size + 1 < W.heap.size := (Array.getElem?_eq_some_iff.1 hl).1
      have hy := run_yield (P := Tryz.prog) (args := encs x) hl (by rw [hrec]; exact hps x)
      rw [hrec] at hy
      refine ⟨fn, _, assign, body, hy, roundIn_of_wpIn hfn (hassign _ x W _ ⟨_, run_beginRound hl (by rw [hrec]), ?_⟩)⟩
      have hl2 : (W.putObj (w.heap.size + 1) (.loop { rec .ready none with state := .busy })).heap[w.heap.size + 1]? = some (.loop { rec .ready none with state := .busy }) := World.putObj_heap_same hlt
      have ho2 : ∀ k, k ≠ w.heap.size + 1 → (W.putObj (w.heap.size + 1) (.loop { rec .ready none with state := .busy })).heap[k]? = W.heap[k]? := fun k hk => World.putObj_heap_other hk
      have hs2 : (W.putObj (w.heap.size + 1) (.loop { rec .ready none with state := .busy })).heap.size = W.heap.size := by simp
      have hi2 : I pre (W.putObj (w.heap.size + 1) (.loop { rec .ready none with state := .busy })) := hI _ _ _ (some (w.heap.size + 1)) hi (grownBy_putObj' W _ _) (fun r e => by cases e; omega)
      refine wpIn_mono (hbody _ pre x _ hi2 hpx (by simp; omega)) ?_
      have fin : ∀ (jump : Option Code) (W3 : World), KeepHi w.heap.size (W.putObj (w.heap.size + 1) (.loop { rec .ready none with state := .busy })) W3 →
          (Instr.endRound (w.heap.size + 1) jump).run Tryz.prog W3 = .ok (.bool jump.isNone) (W3.putObj (w.heap.size + 1) (.loop (rec (if jump.isNone then .ready else .done) jump))) ∧
          (W3.putObj (w.heap.size + 1) (.loop (rec (if jump.isNone then .ready else .done) jump))).heap[w.heap.size + 1]? = some (.loop (rec (if jump.isNone then .ready else .done) jump)) ∧
          (W3.putObj (w.heap.size + 1) (.loop (rec (if jump.isNone then .ready else .done) jump))).heap[w.heap.size]? = some (.deferred (some [])) ∧
          KeepHi W1.heap.size W (W3.putObj (w.heap.size + 1) (.loop (rec (if jump.isNone then .ready else .done) jump))) := fun jump W3 hk3 => by
        have hl3 := (hk3.same (w.heap.size + 1) (by omega) (by omega)).trans hl2
        have hd3 := (hk3.same w.heap.size (by omega) (by omega)).trans ((ho2 _ (by omega)).trans hk)
        have := run_endRound (P := Tryz.prog) jump hl3
        rw [hrec] at this ⊢
        refine ⟨this, World.putObj_heap_same (Array.getElem?_eq_some_iff.1 hl3).1, (World.putObj_heap_other (by omega)).trans hd3, by have := hk3.size; simp at this ⊢; omega, fun k hk hlk => ?_⟩
        exact (World.putObj_heap_other (by omega)).trans ((hk3.same k (by omega) (by omega)).trans (ho2 k (by omega)))
      rintro e a3 W3 hp
      cases e with
      | normal =>
        obtain ⟨hk3, hi3⟩ := hp
        obtain ⟨hr, hl4, hk4, hkk⟩ := fin none W3 hk3
        exact ⟨_, _, hr, true, rfl, hkk, .inl ⟨rfl, hI _ _ _ (some (w.heap.size + 1)) hi3 (grownBy_putObj' _ _ _) (fun r e => by cases e; omega), hl4, hk4⟩⟩
      | ret =>
        obtain ⟨hk3, hi3⟩ := hp
        obtain ⟨hr, hl4, hk4, hkk⟩ := fin (some .ret) W3 hk3
        exact ⟨_, _, hr, false, rfl, hkk, .inr ⟨rfl, .ret, hIx _ _ _ _ (some (w.heap.size + 1)) hi3 (grownBy_putObj' _ _ _) (fun r e => by cases e; omega), hl4, hk4⟩⟩
      | exit id =>
        obtain ⟨hk3, hi3⟩ := hp
        obtain ⟨hr, hl4, hk4, hkk⟩ := fin (some (.exit id)) W3 hk3
        exact ⟨_, _, hr, false, rfl, hkk, .inr ⟨rfl, .exit id, hIx _ _ _ _ (some (w.heap.size + 1)) hi3 (grownBy_putObj' _ _ _) (fun r e => by cases e; omega), hl4, hk4⟩⟩
      | goto t => exact hp.elim
      | panic ch => exact hp.elim
      | outgrown => exact hp.elim
    · rintro e W2 ⟨⟨v, rfl⟩, (⟨hi, hl, hk⟩ | ⟨pre, hpre, c, hi, hl, hk⟩)⟩
      · exact ⟨none, _, by have := run_endLoop (P := Tryz.prog) hl (by rw [hrec]; simp); rw [hrec] at this; exact this, hdone _ _ (Nat.le_refl _) (hI _ _ _ (some (w.heap.size + 1)) hi (grownBy_putObj' _ _ _) (fun r e => by cases e; omega)) ((World.putObj_heap_other (by omega)).trans hk)⟩
      · exact ⟨some c, _, by have := run_endLoop (P := Tryz.prog) hl (by rw [hrec]; simp); rw [hrec] at this; exact this, hstop _ c pre _ (Nat.le_refl _) hpre (hIx c _ _ _ (some (w.heap.size + 1)) hi (grownBy_putObj' _ _ _) (fun r e => by cases e; omega)) ((World.putObj_heap_other (by omega)).trans hk)⟩
end Go.Proofs.YtofiaodpjpjedaaGreatDoor

namespace Go.Proofs.YtofiaodpjpjedaaGreatDoor
open Go.RowKit Go.Lib
set_option maxHeartbeats 1000000
set_option maxRecDepth 100000

theorem preB_cut (s p : ByteArray) : ((s.extract 0 p.size).toList == p.toList) = p.data.toList.isPrefixOf s.data.toList := by
  rw [Bool.eq_iff_iff, List.isPrefixOf_iff_prefix, List.prefix_iff_eq_take, beq_iff_eq, ByteArray.toList_eq, ByteArray.toList_eq, Lib.extract_data, List.drop_zero, Nat.sub_zero, size_list]
  exact ⟨fun h => h.symm, fun h => h.symm⟩
theorem preB_long {s p : ByteArray} (h : ¬ p.size ≤ s.size) : p.data.toList.isPrefixOf s.data.toList = false := by
  rw [Bool.eq_false_iff]
  intro e
  have := (List.isPrefixOf_iff_prefix.1 e).length_le
  rw [size_list, size_list] at this
  exact h this

theorem rBegins1 (s p : ByteArray) (w : World) :
    Calls Tryz.prog 67 #[.string s, .string p] w fun e w' => e = .returned (.bool (p.data.toList.isPrefixOf s.data.toList)) ∧ w' = w := by
  by_cases hl : p.size ≤ s.size
  · have hI : (p.size : Int) ≤ (s.size : Int) := by omega
    have HE := Lib.hid (preB_cut s p)
    go_enter Tryz.func67, Tryz.ntmps67
    go_wp2
    go_ret
    exact ⟨ret_bool HE.out, rfl⟩
  · have hI : (s.size : Int) < (p.size : Int) := by omega
    have HE := Lib.hid (preB_long hl)
    go_enter Tryz.func67, Tryz.ntmps67
    go_wp2
    go_ret
    exact ⟨ret_bool HE.out.symm, rfl⟩
end Go.Proofs.YtofiaodpjpjedaaGreatDoor

namespace Go.Proofs.YtofiaodpjpjedaaGreatDoor
open Go.RowKit
set_option maxHeartbeats 2000000
set_option maxRecDepth 100000

def nR (c : UInt8) (l : List UInt8) : Nat := (l.takeWhile fun b => b != c).length
theorem nR_nil (c : UInt8) : nR c [] = 0 := rfl
theorem nR_yes {c b : UInt8} (t : List UInt8) (h : b = c) : nR c (b :: t) = 0 := by simp [nR, h]
theorem nR_no {c b : UInt8} (t : List UInt8) (h : b ≠ c) : nR c (b :: t) = nR c t + 1 := by simp [nR, h]
theorem nR_le (c : UInt8) (l : List UInt8) : nR c l ≤ l.length := (List.takeWhile_sublist _).length_le

theorem rWord (at_ : Nat) (h : at_ ≤ 29726) (w : World) :
    Calls Tryz.prog 116 #[.int .i64 at_] w fun e w' => e = .returned (.int .i64 (at_ + nR 32 (NM.data.toList.drop at_) : Nat)) ∧ w' = w := by
  have hsz := nm_size
  go_enter Tryz.func116, Tryz.ntmps116
  generalize hN : (ByteArray.mk (List.toArray (List.append _ _))) = N
  have HN : NM = N := by rw [← hN]; rfl
  clear hN
  rw [HN] at hsz ⊢
  clear HN
  have HSZ := Lib.hid hsz
  have hsi : (N.size : Int) = 29726 := by omega
  clear hsz
  obtain ⟨R, hR⟩ : ∃ R, R = at_ + nR 32 (N.data.toList.drop at_) := ⟨_, rfl⟩
  rw [← hR]
  have HR := Lib.hid hR
  clear hR
  go_wp2_with fail
  go_loop [0] (fun i => ∃ k : Nat, k ≤ 29726 ∧ i = .int .i64 k ∧ k + nR 32 (N.data.toList.drop k) = R) (fun i => 29726 - (intOf i).toNat)
  case atStart => exact ⟨at_, h, rfl, HR.out.symm⟩
  case round =>
    obtain ⟨k, hk, rfl, hr⟩ := hrel
    have HRR := Lib.hid hr
    clear hr
    by_cases hlt : k < 29726
    · have hlt2 : k < N.size := by rw [HSZ.out]; exact hlt
      have hI : (k : Int) < (N.size : Int) := by omega
      have hI2 : (k : Int) < 29726 := by omega
      have HD := Lib.hid (drop_byte N k hlt2)
      by_cases hb : N[k]'hlt2 = 32
      · have hq : (((N[k]'hlt2).toNat : Int) != 32) = false := by rw [hb]; rfl
        have HF : Hid (k = R) := Lib.hid (by rw [← HRR.out, HD.out, nR_yes _ hb]; rfl)
        clear hb
        go_wp2_with fail
        go_ret
        exact ⟨ret_int (by rw [HF.out]), rfl⟩
      · have hq : (((N[k]'hlt2).toNat : Int) != 32) = true := by
          rw [bne_iff_ne]
          intro e
          exact hb (UInt8.toNat_inj.mp (by show _ = 32; omega))
        have HF : Hid (k + 1 + nR 32 (N.data.toList.drop (k + 1)) = R) := Lib.hid (by rw [← HRR.out, HD.out, nR_no _ hb]; omega)
        clear hb
        go_wp2_with fail
        go_round
        case rel => exact ⟨k + 1, by omega, by go_num, HF.out⟩
        case measure => simp [intOf]; omega
    · have hI : ¬ (k : Int) < (N.size : Int) := by omega
      have hI2 : ¬ (k : Int) < 29726 := by omega
      have HF : Hid (k = R) := Lib.hid (by rw [← HRR.out, drop_end N k (by rw [HSZ.out]; omega)]; rfl)
      go_wp2_with fail
      go_ret
      exact ⟨ret_int (by rw [HF.out]), rfl⟩

theorem rSign (from_ to_ : Nat) (hft : from_ ≤ to_) (ht : to_ ≤ 29726) (w : World) :
    Calls Tryz.prog 117 #[.int .i64 from_, .int .i64 to_] w fun e w' => e = .returned (.int .i64 (from_ + nR 61 (cutAt NM.data.toList from_ to_) : Nat)) ∧ w' = w := by
  have hsz := nm_size
  go_enter Tryz.func117, Tryz.ntmps117
  generalize hN : (ByteArray.mk (List.toArray (List.append _ _))) = N
  have HN : NM = N := by rw [← hN]; rfl
  clear hN
  rw [HN] at hsz ⊢
  clear HN
  have HSZ := Lib.hid hsz
  have hsi : (N.size : Int) = 29726 := by omega
  clear hsz
  obtain ⟨R, hR⟩ : ∃ R, R = from_ + nR 61 (cutAt N.data.toList from_ to_) := ⟨_, rfl⟩
  rw [← hR]
  have HR := Lib.hid hR
  clear hR
  go_wp2_with fail
  go_loop [0] (fun i => ∃ k : Nat, k ≤ to_ ∧ i = .int .i64 k ∧ k + nR 61 (cutAt N.data.toList k to_) = R) (fun i => to_ - (intOf i).toNat)
  case atStart => exact ⟨from_, hft, rfl, HR.out.symm⟩
  case round =>
    obtain ⟨k, hk, rfl, hr⟩ := hrel
    have HRR := Lib.hid hr
    clear hr
    by_cases hlt : k < to_
    · have hlt2 : k < N.size := by rw [HSZ.out]; omega
      have hI : (k : Int) < (N.size : Int) := by omega
      have hI2 : (k : Int) < (to_ : Int) := by omega
      have hI3 : (k : Int) < 29726 := by omega
      have hD : cutAt N.data.toList k to_ = N[k]'hlt2 :: cutAt N.data.toList (k + 1) to_ := by
        unfold cutAt
        have hl2 : k < (N.data.toList.take to_).length := by rw [List.length_take, size_list]; omega
        rw [List.drop_eq_getElem_cons hl2, List.getElem_take]
        rfl
      have HD := Lib.hid hD
      clear hD
      by_cases hb : N[k]'hlt2 = 61
      · have hq : (((N[k]'hlt2).toNat : Int) != 61) = false := by rw [hb]; rfl
        have HF : Hid (k = R) := Lib.hid (by rw [← HRR.out, HD.out, nR_yes _ hb]; rfl)
        clear hb
        go_wp2_with fail
        go_ret
        exact ⟨ret_int (by rw [HF.out]), rfl⟩
      · have hq : (((N[k]'hlt2).toNat : Int) != 61) = true := by
          rw [bne_iff_ne]
          intro e
          exact hb (UInt8.toNat_inj.mp (by show _ = 61; omega))
        have HF : Hid (k + 1 + nR 61 (cutAt N.data.toList (k + 1) to_) = R) := Lib.hid (by rw [← HRR.out, HD.out, nR_no _ hb]; omega)
        clear hb
        go_wp2_with fail
        go_round
        case rel => exact ⟨k + 1, by omega, by go_num, HF.out⟩
        case measure => simp [intOf]; omega
    · have hI : ¬ (k : Int) < (to_ : Int) := by omega
      have HF : Hid (k = R) := Lib.hid (by
        rw [← HRR.out]
        unfold cutAt
        rw [List.drop_eq_nil_of_le (by rw [List.length_take]; omega)]
        rfl)
      go_wp2_with fail
      go_ret
      exact ⟨ret_int (by rw [HF.out]), rfl⟩

theorem own_form2 {w : World} {B e size n : Nat} {v : Value} {xs : List Value} (h : w.ownsRow B e size v n xs) : ∃ a c, v = .slice a n c := by
  rcases h.2 with ⟨rfl, rfl⟩ | ⟨g, cap, cur, rfl, _⟩
  · exact ⟨_, _, rfl⟩
  · exact ⟨_, _, rfl⟩

theorem rValue (s : ByteArray) (hs : s.size ≤ 100) (hok : okVal 0 s.data.toList = true) (w : World) :
    Calls Tryz.prog 118 #[.string s] w fun e w' => e = .returned (.string ⟨((refVal 0 s.data.toList).flatMap encU).toArray⟩) ∧ Below w.heap.size w w' := by
  obtain ⟨i0, hi, hz0, hz1, hz2⟩ := info_parts info_i32
  have hbd := refVal_bd s.data.toList 0 (by omega) hok
  have hln := refVal_len s.data.toList 0
  rw [size_list] at hln
  obtain ⟨R, hR⟩ : ∃ R, R = refVal 0 s.data.toList := ⟨_, rfl⟩
  rw [← hR] at hbd hln ⊢
  have HR := Lib.hid hR
  have HBD := Lib.hid hbd
  clear hR hbd
  go_enter Tryz.func118, Tryz.ntmps118
  go_wp2_with fail
  go_loopw [3, 4, 5] (fun v nv iv wr => ∃ (k n : Nat) (z : Int) (pre : List Int), k ≤ s.size + 1 ∧ iv = .int .i64 k ∧ nv = .int .i64 z ∧ 0 ≤ z ∧ pre.length = n ∧ n ≤ k ∧ (k ≤ s.size → pre ++ refVal z (s.data.toList.drop k) = R ∧ okVal z (s.data.toList.drop k) = true) ∧ (s.size < k → pre = R) ∧ wr.ownsRow w.heap.size 21 1 v n (i32c pre) ∧ Below w.heap.size w wr) (fun _ _ iv _ => s.size + 1 - (intOf iv).toNat)
  case atStart => exact ⟨0, 0, 0, [], Nat.zero_le _, rfl, rfl, by omega, rfl, Nat.le_refl _, fun _ => ⟨HR.out.symm, by simpa using hok⟩, fun h => absurd h (by omega), World.ownsRow_nil _ _ _ _, Below.refl _ _⟩
  case round =>
    obtain ⟨k, n, z, pre, hk, rfl, rfl, hz, hln2, hnk, hrest, hend, hown, hB⟩ := hrel
    have HLN := Lib.hid hln2
    have HREST := Lib.hid hrest
    have HEND := Lib.hid hend
    have hsz := hB.size
    clear hln2 hrest hend
    by_cases hle : k ≤ s.size
    · have hI : (k : Int) ≤ (s.size : Int) := by omega
      obtain ⟨h1, h2⟩ := HREST.out hle
      have hzu := okVal_bd _ z hz h2
      by_cases hlt : k < s.size
      · have hI2 : (k : Int) < (s.size : Int) := by omega
        have hne : ((k : Int) == (s.size : Int)) = false := by rw [beq_eq_false_iff_ne]; omega
        rw [drop_byte s k hlt] at h1 h2
        by_cases hb : s[k]'hlt = 44
        · have hq : (((s[k]'hlt).toNat : Int) == 44) = true := by rw [hb]; rfl
          rw [refVal, if_pos hb] at h1
          rw [okVal, if_pos hb, Bool.and_eq_true] at h2
          have HN : Hid ((pre ++ [z]) ++ refVal 0 (s.data.toList.drop (k + 1)) = R ∧ okVal 0 (s.data.toList.drop (k + 1)) = true) := Lib.hid ⟨by rw [← h1]; simp, h2.2⟩
          clear h1 h2 hb
          go_wp2_with (first | (at_builtin; refine wpList_append_own _ rfl _ _ 134 rfl w.heap.size 21 i0 (.int .i32 0) 1 4 Tryz.underlying134 hi hz0 hz1 hz2 rfl (by decide) _ _ _ rfl (hown.alloc _) ⟨_, 0, none⟩ 1 1 [.int .i32 z] rfl rfl (one_cell _ _ _) (one_oneI _) (by unfold maxLen; omega) (by omega) (by simp; omega) ?_; intro v' w9 hown' hgrow _))
          have hB' := own_grown hB hown rfl hgrow
          have HO : Hid (w9.ownsRow w.heap.size 21 1 v' (n + 1) (i32c (pre ++ [z]))) := Lib.hid (by
            have := hown'
            simpa [i32c] using this)
          clear hown' hgrow
          go_wp2
          go_roundw
          case rel => exact ⟨k + 1, n + 1, 0, pre ++ [z], by omega, by go_num, rfl, by omega, by have := HLN.out; simp; omega, by omega, fun _ => HN.out, fun h => absurd h (by omega), HO.out, hB'⟩
          case measure => simp [intOf]; omega
        · have hq : (((s[k]'hlt).toNat : Int) == 44) = false := by
            rw [beq_eq_false_iff_ne]
            intro e
            exact hb (UInt8.toNat_inj.mp (by show _ = 44; omega))
          rw [refVal, if_neg hb] at h1
          rw [okVal, if_neg hb, Bool.and_eq_true] at h2
          have hx := hexV_bd h2.1
          have HN : Hid (pre ++ refVal (16 * z + hexV (s[k]'hlt).toNat) (s.data.toList.drop (k + 1)) = R ∧ okVal (16 * z + hexV (s[k]'hlt).toNat) (s.data.toList.drop (k + 1)) = true) := Lib.hid ⟨h1, h2.2⟩
          have HH := Lib.hid (rHex ((s[k]'hlt).toNat : Int))
          obtain ⟨hx0, hx1⟩ := hx
          clear h1 h2 hb
          generalize hexV (s[k]'hlt).toNat = x at HN HH hx0 hx1
          go_wp2_with fail
          refine (HH.out _).mono ?_
          rintro e w' ⟨rfl, rfl⟩
          go_wp2_with fail
          go_roundw
          case rel => exact ⟨k + 1, n, 16 * z + x, pre, by omega, by go_num, rfl, by omega, HLN.out, by omega, fun _ => HN.out, fun h => absurd h (by omega), hown, hB⟩
          case measure => simp [intOf]; omega
      · have hks : ((k : Int) == (s.size : Int)) = true := by rw [beq_iff_eq]; omega
        rw [drop_end s k (by omega)] at h1
        have HN : Hid (pre ++ [z] = R) := Lib.hid h1
        clear h1 h2
        go_wp2_with (first | (at_builtin; refine wpList_append_own _ rfl _ _ 134 rfl w.heap.size 21 i0 (.int .i32 0) 1 4 Tryz.underlying134 hi hz0 hz1 hz2 rfl (by decide) _ _ _ rfl (hown.alloc _) ⟨_, 0, none⟩ 1 1 [.int .i32 z] rfl rfl (one_cell _ _ _) (one_oneI _) (by unfold maxLen; omega) (by omega) (by simp; omega) ?_; intro v' w9 hown' hgrow _))
        have hB' := own_grown hB hown rfl hgrow
        have HO : Hid (w9.ownsRow w.heap.size 21 1 v' (n + 1) (i32c (pre ++ [z]))) := Lib.hid (by
          have := hown'
          simpa [i32c] using this)
        clear hown' hgrow
        go_wp2
        go_roundw
        case rel => exact ⟨k + 1, n + 1, 0, pre ++ [z], by omega, by go_num, rfl, by omega, by have := HLN.out; simp; omega, by omega, fun h => absurd h (by omega), fun _ => HN.out, HO.out, hB'⟩
        case measure => simp [intOf]; omega
    · have hI : (s.size : Int) < (k : Int) := by omega
      have hR2 := HEND.out (by omega)
      have hown2 := hown
      rw [← HLN.out, hR2] at hown2
      have HT := Lib.hid (rText _ w.heap.size R HBD.out (by omega) wr hown2)
      obtain ⟨a, c, hac⟩ := own_form2 hown2
      subst hac
      clear hown2 hown hR2
      go_wp2_with fail
      refine HT.out.mono ?_
      rintro e w5 ⟨rfl, hb5⟩
      go_wp2_with fail
      go_ret
      exact ⟨rfl, below_next hB hb5⟩
end Go.Proofs.YtofiaodpjpjedaaGreatDoor

namespace Go.Proofs.YtofiaodpjpjedaaGreatDoor
open Go.RowKit
set_option maxHeartbeats 2000000
set_option maxRecDepth 100000

/-- The first part, and the others. -/
theorem parts_cons (l : List UInt8) : parts 32 l = l.take (nR 32 l) :: (if nR 32 l = l.length then [] else parts 32 (l.drop (nR 32 l + 1))) := by
  induction l with
  | nil => rfl
  | cons b t ih =>
    by_cases hb : b = 32
    · subst hb
      rw [nR_yes _ rfl, if_neg (by simp)]
      rfl
    · rw [nR_no _ hb, List.take_succ_cons, List.length_cons, List.drop_succ_cons]
      rw [parts, if_neg (by simpa using hb), ih]
      simp
theorem cut_take (l : List UInt8) (a n : Nat) : cutAt l a (a + n) = (l.drop a).take n := by
  unfold cutAt
  rw [List.drop_take, Nat.add_sub_cancel_left]
theorem name_take (e : List UInt8) : e.take (nR 61 e) = nameOf e ∧ (nameOf e).length = nR 61 e := by
  unfold nR nameOf
  exact ⟨(List.prefix_iff_eq_take.1 (List.takeWhile_prefix _)).symm, rfl⟩
theorem codes_drop (e : List UInt8) (h : e.any (fun b => b == 61) = true) : nR 61 e < e.length ∧ e.drop (nR 61 e + 1) = codesOf e := by
  induction e with
  | nil => simp at h
  | cons b t ih =>
    by_cases hb : b = 61
    · subst hb
      rw [nR_yes _ rfl]
      exact ⟨by simp, rfl⟩
    · have hb2 : (b == 61) = false := by simpa using hb
      rw [List.any_cons, hb2, Bool.false_or] at h
      obtain ⟨h1, h2⟩ := ih h
      rw [nR_no _ hb, List.length_cons, List.drop_succ_cons]
      refine ⟨by omega, h2.trans ?_⟩
      have : (b != 61) = true := by simpa using hb
      simp [codesOf, this]

/-- What is left of the table at an offset. -/
structure AtEnt (a : Nat) (rest : List (List UInt8)) : Prop where
  here : (a < 29726 ∧ rest = parts 32 (NM.data.toList.drop a)) ∨ (29726 ≤ a ∧ rest = [])
  mem : ∀ x ∈ rest, x ∈ ENT
theorem atEnt_start : AtEnt 0 ENT := ⟨.inl ⟨by omega, rfl⟩, fun _ h => h⟩
theorem atEnt_end {a : Nat} {rest : List (List UInt8)} (h : AtEnt a rest) (ha : ¬ a < 29726) : rest = [] := by
  rcases h.here with ⟨h1, _⟩ | ⟨_, h1⟩
  · exact absurd h1 ha
  · exact h1
theorem atEnt_step {a : Nat} {rest : List (List UInt8)} (h : AtEnt a rest) (ha : a < 29726) : ∃ (e : List UInt8) (r : List (List UInt8)), rest = e :: r ∧ e ∈ ENT ∧ e.length = nR 32 (NM.data.toList.drop a) ∧
    cutAt NM.data.toList a (a + e.length) = e ∧ a + e.length ≤ 29726 ∧ AtEnt (a + e.length + 1) r := by
  rcases h.here with ⟨_, h1⟩ | ⟨h1, _⟩
  · have hl := nm_length
    have hle := nR_le 32 (NM.data.toList.drop a)
    rw [List.length_drop, hl] at hle
    rw [parts_cons] at h1
    have hlen : ((NM.data.toList.drop a).take (nR 32 (NM.data.toList.drop a))).length = nR 32 (NM.data.toList.drop a) := by
      rw [List.length_take, List.length_drop, hl]; omega
    refine ⟨_, _, h1, h.mem _ (by rw [h1]; simp), hlen, by rw [hlen, cut_take], by rw [hlen]; omega, ?_⟩
    rw [hlen]
    refine ⟨?_, fun x hx => h.mem x (by rw [h1]; exact List.mem_cons_of_mem _ hx)⟩
    by_cases he : nR 32 (NM.data.toList.drop a) = (NM.data.toList.drop a).length
    · rw [if_pos he]
      rw [List.length_drop, hl] at he
      exact .inr ⟨by omega, rfl⟩
    · rw [if_neg he]
      rw [List.length_drop, hl] at he
      refine .inl ⟨?_, by rw [List.drop_drop, Nat.add_assoc]⟩
      rcases Nat.lt_or_ge (a + nR 32 (NM.data.toList.drop a) + 1) 29726 with h2 | h2
      · exact h2
      · exfalso
        have h4 := nm_last_b
        rw [List.getLast?_eq_getElem?, hl] at h4
        have h5 : (NM.data.toList.drop a)[nR 32 (NM.data.toList.drop a)]? = some 32 := by
          have key : ∀ l : List UInt8, nR 32 l ≠ l.length → l[nR 32 l]? = some 32 := by
            intro l
            induction l with
            | nil => intro h; simp [nR_nil] at h
            | cons b t ih =>
              intro h
              by_cases hb : b = 32
              · subst hb; rw [nR_yes _ rfl]; rfl
              · rw [nR_no _ hb] at h ⊢
                rw [List.getElem?_cons_succ]
                exact ih (by simpa using h)
          exact key _ (by rw [List.length_drop, hl]; exact he)
        rw [List.getElem?_drop, show a + nR 32 (NM.data.toList.drop a) = 29726 - 1 by omega] at h5
        rw [h5] at h4
        simp at h4
  · omega

theorem rLongest (s : ByteArray) (w : World) :
    Calls Tryz.prog 59 #[.string s] w fun e w' => ∃ V : ByteArray, e = .returned (.tuple #[.int .i64 (lgL s.data.toList).1, .string V]) ∧ V.data.toList = (lgL s.data.toList).2 ∧ Below w.heap.size w w' := by
  have hsz := nm_size
  have HW := Lib.hid rWord
  have HSG := Lib.hid rSign
  go_enter Tryz.func59, Tryz.ntmps59
  generalize hN : (ByteArray.mk (List.toArray (List.append _ _))) = N
  have HN : NM = N := by rw [← hN]; rfl
  clear hN
  rw [HN] at hsz
  have HSZ := Lib.hid hsz
  have hsi : (N.size : Int) = 29726 := by omega
  have HNN := Lib.hid HN
  clear hsz HN
  go_wp2_with fail
  go_loopw [4, 5, 6] (fun nv vv av wr => ∃ (a n : Nat) (V : ByteArray) (rest : List (List UInt8)), av = .int .i64 a ∧ nv = .int .i64 n ∧ vv = .string V ∧ a ≤ 29727 ∧ n ≤ 29727 ∧ AtEnt a rest ∧ rest.foldl (lgStep s.data.toList) (n, V.data.toList) = lgL s.data.toList ∧ Below w.heap.size w wr) (fun _ _ av _ => 29727 - (intOf av).toNat)
  case atStart => exact ⟨0, 0, ⟨#[]⟩, ENT, rfl, rfl, rfl, by omega, by omega, atEnt_start, rfl, Below.refl _ _⟩
  case round =>
    obtain ⟨a, n, V, rest, rfl, rfl, rfl, ha, hn, hat, hfold, hB⟩ := hrel
    by_cases hlt : a < 29726
    · have hI : (a : Int) < 29726 := by omega
      obtain ⟨e, r, rfl, hmem, hel, hcut, hle, hnext⟩ := atEnt_step hat hlt
      obtain ⟨p1, p2, p3, p4, p5, p6⟩ := ent_parts5 hmem
      obtain ⟨c1, c2⟩ := codes_drop e p6
      obtain ⟨t1, t2⟩ := name_take e
      rw [List.foldl_cons] at hfold
      have HF := Lib.hid hfold
      obtain ⟨T, hT⟩ : ∃ T, T = a + e.length := ⟨_, rfl⟩
      obtain ⟨K, hK⟩ : ∃ K, K = a + (nameOf e).length := ⟨_, rfl⟩
      have hw1 := Lib.hid (HW.out a (by omega))
      rw [← hel, ← hT] at hw1
      have hs1 := Lib.hid (HSG.out a T (by omega) (by omega))
      rw [hT, hcut, ← t2, ← hT, ← hK] at hs1
      have hKT : K < T := by omega
      have haK : a ≤ K := by omega
      have hT6 : T ≤ 29726 := by omega
      have hcutK : (N.extract a K).data.toList = nameOf e := by
        rw [← HNN.out, nm_slice, hK, cut_take, t2]
        have h1 := congrArg (List.take (nR 61 e)) hcut
        rw [cut_take, List.take_take, Nat.min_eq_left (by omega)] at h1
        exact h1.trans t1
      have hcutT : (N.extract (K + 1) T).data.toList = codesOf e := by
        rw [← HNN.out, nm_slice, ← c2]
        have h1 := congrArg (List.drop (nR 61 e + 1)) hcut
        unfold cutAt at h1 ⊢
        rw [List.drop_drop] at h1
        rw [hT, hK, t2, ← h1, Nat.add_assoc]
      have hvs : (N.extract (K + 1) T).size ≤ 100 := by rw [← size_list, hcutT]; exact p5
      have HB2 := Lib.hid (rBegins1 s (N.extract a K))
      rw [hcutK] at HB2
      have HV := Lib.hid (rValue (N.extract (K + 1) T) hvs (by rw [hcutT]; exact p3))
      rw [hcutT, p4] at HV
      have HNX := Lib.hid hnext
      rw [← hT] at HNX
      have i1 : (K : Int) < (T : Int) := by omega
      have i2 : (T : Int) ≤ 29726 := by omega
      have i3 : (a : Int) ≤ (K : Int) := by omega
      have i4 : (K : Int) ≤ 29726 := by omega
      have i5 : (K : Int) + 1 ≤ (T : Int) := by omega
      have HLK : Hid ((nameOf e).length = K - a) := Lib.hid (by omega)
      have hnk : n < (nameOf e).length ↔ (n : Int) < (K : Int) - (a : Int) := by omega
      have HNK := Lib.hid hnk
      clear hfold hel hcut hle hnext p1 p2 p3 p4 p5 p6 c1 c2 t1 t2 hT hK hcutK hcutT hnk hmem
      by_cases hgt : (n : Int) < (K : Int) - (a : Int)
      · cases hp : (nameOf e).isPrefixOf s.data.toList with
        | true =>
          rw [hp] at HB2
          have HS : Hid (r.foldl (lgStep s.data.toList) (K - a, valL (codesOf e)) = lgL s.data.toList) := Lib.hid (by
            rw [← HF.out, lgStep, if_pos ⟨HNK.out.2 hgt, hp⟩, HLK.out])
          clear hp
          go_wp2_with fail
          refine (hw1.out _).mono ?_
          rintro e1 w1 ⟨rfl, rfl⟩
          go_wp2_with fail
          refine (hs1.out _).mono ?_
          rintro e2 w2 ⟨rfl, rfl⟩
          go_wp2_with fail
          refine (HB2.out _).mono ?_
          rintro e2 w2 ⟨rfl, rfl⟩
          go_wp2_with fail
          refine (HV.out _).mono ?_
          rintro e2 w2 ⟨rfl, hb2⟩
          go_wp2_with fail
          go_roundw
          case rel => exact ⟨T + 1, K - a, ⟨(valL (codesOf e)).toArray⟩, r, by go_num, by go_num, rfl, by omega, by omega, HNX.out, HS.out, below_next hB hb2⟩
          case measure => simp [intOf]; omega
        | false =>
          rw [hp] at HB2
          have HS : Hid (r.foldl (lgStep s.data.toList) (n, V.data.toList) = lgL s.data.toList) := Lib.hid (by
            rw [← HF.out, lgStep, if_neg (by simp [hp])])
          clear hp
          go_wp2_with fail
          refine (hw1.out _).mono ?_
          rintro e1 w1 ⟨rfl, rfl⟩
          go_wp2_with fail
          refine (hs1.out _).mono ?_
          rintro e2 w2 ⟨rfl, rfl⟩
          go_wp2_with fail
          refine (HB2.out _).mono ?_
          rintro e2 w2 ⟨rfl, rfl⟩
          go_wp2_with fail
          go_roundw
          case rel => exact ⟨T + 1, n, V, r, by go_num, rfl, rfl, by omega, hn, HNX.out, HS.out, hB⟩
          case measure => simp [intOf]; omega
      · have HS : Hid (r.foldl (lgStep s.data.toList) (n, V.data.toList) = lgL s.data.toList) := Lib.hid (by
          rw [← HF.out, lgStep, if_neg (fun h => hgt (HNK.out.1 h.1))])
        have hd : decide ((n : Int) < (K : Int) - (a : Int)) = false := by simpa using hgt
        clear hgt i1 i2 i3 i4 i5
        go_wp2_with fail
        refine (hw1.out _).mono ?_
        rintro e1 w1 ⟨rfl, rfl⟩
        go_wp2_with fail
        refine (hs1.out _).mono ?_
        rintro e2 w2 ⟨rfl, rfl⟩
        go_wp2_with fail
        go_roundw
        case rel => exact ⟨T + 1, n, V, r, by go_num, rfl, rfl, by omega, hn, HNX.out, HS.out, hB⟩
        case measure => simp [intOf]; omega
    · have hI : ¬ (a : Int) < 29726 := by omega
      rw [atEnt_end hat hlt] at hfold
      have HF : Hid ((n, V.data.toList) = lgL s.data.toList) := Lib.hid hfold
      clear hfold
      go_wp2_with fail
      go_ret2
      exact ⟨V, by rw [← HF.out]; rfl, by rw [← HF.out], hB⟩
end Go.Proofs.YtofiaodpjpjedaaGreatDoor

namespace Go.Proofs.YtofiaodpjpjedaaGreatDoor
open Go.RowKit
set_option maxHeartbeats 2000000
set_option maxRecDepth 100000

noncomputable def hpB (s : List UInt8) : Bool := ENT.any fun e => s.isPrefixOf (nameOf e)

/-- Between a string and one that begins with it, all begin with it. -/
theorem mid_prefix : ∀ (s x r : List UInt8), ltB s x = true → ltB x (s ++ r) = true → s <+: x
  | [], x, r, _, _ => List.nil_prefix
  | a :: s, [], r, h, _ => by simp [ltB, Op.bytesLess] at h
  | a :: s, b :: x, r, h, h2 => by
    rw [List.cons_append] at h2
    by_cases hab : a = b
    · subst hab
      have e1 := ltB_app [a] s x
      have e2 := ltB_app [a] x (s ++ r)
      simp only [List.singleton_append] at e1 e2
      rw [e1] at h
      rw [e2] at h2
      exact (List.cons_prefix_cons).2 ⟨rfl, mid_prefix s x r h h2⟩
    · exfalso
      rw [ltB_head hab] at h
      rw [ltB_head (fun e => hab e.symm)] at h2
      simp only [decide_eq_true_eq, UInt8.lt_iff_toNat_lt] at h h2
      omega
/-- Greater, and not beginning with it. -/
def Gt (s x : List UInt8) : Prop := ltB s x = true ∧ ¬ s <+: x
theorem gt_up {s x y : List UInt8} (h : Gt s x) (h2 : ltB x y = true) : Gt s y := by
  refine ⟨ltB_trans _ _ _ h.1 h2, ?_⟩
  rintro ⟨r, rfl⟩
  exact h.2 (mid_prefix s x r h.1 h2)
theorem lt_not {s x : List UInt8} (h : ltB x s = true) : ¬ s <+: x := by
  intro hp
  have := leB_prefix hp
  rw [(leB_not s x).2 h] at this
  exact absurd this (by decide)

structure HalvP (s : List UInt8) (lo hi : Nat) : Prop where
  below : ∀ S E, IsEnt NM.data.toList S E → S < lo → ltB (nameOf (cutAt NM.data.toList S E)) s = true
  above : ∀ S E, IsEnt NM.data.toList S E → hi ≤ S → Gt s (nameOf (cutAt NM.data.toList S E))
theorem halvP_start (s : List UInt8) : HalvP s 0 29726 := by
  refine ⟨fun S E _ h => absurd h (by omega), fun S E h hS => ?_⟩
  exfalso
  have h1 := h.le
  have h2 := h.len
  rw [nm_length] at h2
  have h3 := h.left.resolve_left (by omega)
  have h4 := nm_last_b
  rw [List.getLast?_eq_getElem?, nm_length] at h4
  rw [show S - 1 = 29726 - 1 by omega] at h3
  rw [h3] at h4
  simp at h4
theorem halvP_up {s : List UInt8} {lo hi : Nat} (h : HalvP s lo hi) {S E : Nat} (he : IsEnt NM.data.toList S E) (hlt : ltB (nameOf (cutAt NM.data.toList S E)) s = true) : HalvP s (E + 1) hi := by
  refine ⟨fun S' E' h' hS => ?_, h.above⟩
  rcases Nat.lt_trichotomy S S' with h1 | rfl | h1
  · have := ent_next he h' h1; omega
  · rw [← ent_uniq he h']; exact hlt
  · exact ltB_trans _ _ _ (ent_order ent_sorted h' he h1) hlt
theorem halvP_down {s : List UInt8} {lo hi : Nat} (h : HalvP s lo hi) {S E : Nat} (he : IsEnt NM.data.toList S E) (hgt : Gt s (nameOf (cutAt NM.data.toList S E))) : HalvP s lo S := by
  refine ⟨h.below, fun S' E' h' hS => ?_⟩
  rcases Nat.lt_or_eq_of_le hS with h1 | rfl
  · exact gt_up hgt (ent_order ent_sorted he h' h1)
  · rw [← ent_uniq he h']; exact hgt
theorem halvP_end {s : List UInt8} {lo hi : Nat} (h : HalvP s lo hi) (hl : hi ≤ lo) : hpB s = false := by
  unfold hpB
  rw [List.any_eq_false]
  intro e he
  rw [List.isPrefixOf_iff_prefix]
  obtain ⟨S, E, hI, rfl⟩ := ent_of _ _ (Nat.le_refl _) e he
  rcases Nat.lt_or_ge S lo with h1 | h1
  · exact lt_not (h.below S E hI h1)
  · exact (h.above S E hI (by omega)).2
theorem halvP_yes {s : List UInt8} {S E : Nat} (he : IsEnt NM.data.toList S E) (hp : s <+: nameOf (cutAt NM.data.toList S E)) : hpB s = true := by
  unfold hpB
  rw [List.any_eq_true]
  exact ⟨_, ent_mem he, List.isPrefixOf_iff_prefix.2 hp⟩

/-- The three ways out of the comparison. -/
theorem cmp_short {A s : List UInt8} {i : Nat} (h : A.take i = s.take i) (hA : i = A.length) (hs : i < s.length) : ltB A s = true := by
  rw [hA, List.take_length] at h
  have e : s = A ++ s.drop A.length := by conv => lhs; rw [← List.take_append_drop A.length s, ← h]
  rw [e]
  have h1 := ltB_app A [] (s.drop A.length)
  rw [List.append_nil] at h1
  rw [h1]
  cases hd : s.drop A.length with
  | nil => have := congrArg List.length hd; rw [List.length_drop] at this; simp at this; omega
  | cons b t => exact ltB_nil b t
theorem cmp_less {A s : List UInt8} {i : Nat} (h : A.take i = s.take i) (hA : i < A.length) (hs : i < s.length) (hlt : A[i] < s[i]) : ltB A s = true := by
  rw [split_at A i hA, split_at s i hs, h, ltB_app, ltB_head (fun e => by rw [e, UInt8.lt_iff_toNat_lt] at hlt; omega)]
  exact decide_eq_true hlt
theorem cmp_more {A s : List UInt8} {i : Nat} (h : A.take i = s.take i) (hA : i < A.length) (hs : i < s.length) (hlt : s[i] < A[i]) : Gt s A := by
  refine ⟨cmp_less h.symm hs hA hlt, ?_⟩
  rintro ⟨r, hr⟩
  have h1 : A[i] = s[i] := by
    have h2 : A[i]? = s[i]? := by rw [← hr, List.getElem?_append_left hs]
    rw [List.getElem?_eq_getElem hA, List.getElem?_eq_getElem hs] at h2
    exact Option.some.inj h2
  rw [h1, UInt8.lt_iff_toNat_lt] at hlt
  omega
theorem cmp_all {A s : List UInt8} (h : A.take s.length = s.take s.length) : s <+: A := by
  rw [List.take_length] at h
  rw [← h]
  exact List.take_prefix _ _

theorem field_name (A B : ByteArray) (w : World) : (Instr.field 97 (.agg #[.string A, .string B]) 0).run Tryz.prog w = .ok (.string A) w := by kernel_rfl

end Go.Proofs.YtofiaodpjpjedaaGreatDoor

namespace Go.Proofs.YtofiaodpjpjedaaGreatDoor
open Go.RowKit
set_option maxHeartbeats 2000000
set_option maxRecDepth 100000

/-- What an entry's numbers are. -/
theorem ent_cuts {a : Nat} {e : List UInt8} (he : e ∈ ENT) (hcut : cutAt NM.data.toList a (a + e.length) = e) :
    (NM.extract a (a + (nameOf e).length)).data.toList = nameOf e ∧ (NM.extract (a + (nameOf e).length + 1) (a + e.length)).data.toList = codesOf e ∧ (nameOf e).length < e.length := by
  obtain ⟨p1, p2, p3, p4, p5, p6⟩ := ent_parts5 he
  obtain ⟨c1, c2⟩ := codes_drop e p6
  obtain ⟨t1, t2⟩ := name_take e
  refine ⟨?_, ?_, by omega⟩
  · rw [nm_slice, cut_take, t2]
    have h1 := congrArg (List.take (nR 61 e)) hcut
    rw [cut_take, List.take_take, Nat.min_eq_left (by omega)] at h1
    exact h1.trans t1
  · rw [nm_slice, ← c2]
    have h1 := congrArg (List.drop (nR 61 e + 1)) hcut
    unfold cutAt at h1 ⊢
    rw [List.drop_drop] at h1
    rw [t2, ← h1, Nat.add_assoc]

end Go.Proofs.YtofiaodpjpjedaaGreatDoor

namespace Go.Proofs.YtofiaodpjpjedaaGreatDoor
open Go.RowKit Go.Shelf
set_option maxHeartbeats 1000000
set_option maxRecDepth 100000

def nmT (x : ByteArray) : ByteArray := pk (nameOf x.data.toList)
def vlT (x : ByteArray) : ByteArray := pk (valL (codesOf x.data.toList))
def lastT (pre : List ByteArray) : ByteArray := match pre.getLast? with | none => ⟨#[]⟩ | some x => nmT x
theorem lastT_snoc (pre : List ByteArray) (x : ByteArray) : lastT (pre ++ [x]) = nmT x := by simp [lastT]

theorem ent_count_b : ((parts 32 NM.data.toList).length == 2231) = true := by decide +kernel
theorem ent_count : ENT.length = 2231 := by
  show (parts 32 NM.data.toList).length = 2231
  exact beq_iff_eq.1 ent_count_b

theorem pb_ent : partsB 32 NM = ENT.map pk := rfl
theorem pk_list (l : List UInt8) : (pk l).data.toList = l := by simp [pk]
theorem pre_step {pre : List ByteArray} {x : ByteArray} (h : pre ++ [x] <+: partsB 32 NM) : ∃ e r, ENT.drop pre.length = e :: r ∧ x = pk e ∧ e ∈ ENT ∧ r = ENT.drop (pre ++ [x]).length ∧ pre.length < 2231 ∧
    (pre = [] ∨ ∃ e0 ∈ ENT, lastT pre = pk (nameOf e0) ∧ ltB (nameOf e0) (nameOf e) = true) := by
  obtain ⟨q, hq⟩ := h
  rw [pb_ent] at hq
  have hlen := congrArg List.length hq
  simp at hlen
  rw [ent_count] at hlen
  have hk : pre.length < ENT.length := by rw [ent_count]; omega
  have hx : x = pk (ENT[pre.length]'hk) := by
    have h1 := congrArg (fun l => l[pre.length]?) hq
    simp [hk] at h1
    exact h1
  refine ⟨ENT[pre.length]'hk, ENT.drop (pre.length + 1), List.drop_eq_getElem_cons hk, hx, List.getElem_mem hk, by simp, by omega, ?_⟩
  rcases Nat.eq_zero_or_pos pre.length with h0 | h0
  · exact .inl (List.length_eq_zero_iff.1 h0)
  · have hk2 : pre.length - 1 < ENT.length := by omega
    refine .inr ⟨ENT[pre.length - 1]'hk2, List.getElem_mem hk2, ?_, ?_⟩
    · have h1 : (pre ++ [x] ++ q)[pre.length - 1]? = (ENT.map pk)[pre.length - 1]? := by rw [hq]
      rw [List.append_assoc] at h1
      rw [List.getElem?_append_left (by omega)] at h1
      rw [List.getElem?_map, List.getElem?_eq_getElem hk2] at h1
      have h2 : pre.getLast? = some (pk (ENT[pre.length - 1]'hk2)) := by rw [List.getLast?_eq_getElem?, h1]; rfl
      simp only [lastT, h2, nmT, pk_list]
    · exact List.pairwise_iff_getElem.1 ent_sorted _ _ hk2 hk (by omega)

theorem nm_pk (e : List UInt8) : nmT (pk e) = pk (nameOf e) := by simp only [nmT, pk_list]
theorem vl_pk (e : List UInt8) : vlT (pk e) = pk (valL (codesOf e)) := by simp only [vlT, pk_list]
theorem pk_eq (A : ByteArray) (l : List UInt8) (h : A.data.toList = l) : A = pk l := by
  subst h; rfl
theorem nm_named {e : List UInt8} (he : e ∈ ENT) {V : ByteArray} {c : Int} (h : NmP (namedR (nameOf e)) V c) : V = pk (valL (codesOf e)) ∧ c = 0 := by
  rw [named_some e he] at h
  rcases h with ⟨h1, h2⟩ | ⟨h1, _, _⟩
  · exact ⟨pk_eq _ _ (Option.some.inj h1).symm, h2⟩
  · cases h1
theorem nm_longest {e : List UInt8} (he : e ∈ ENT) {V : ByteArray} {n : Int} (h : LgP (nameOf e) n V) : n = ((nameOf e).length : Nat) := by
  rcases h with ⟨_, _, h3⟩ | ⟨e', he', h1, h2, _, h4⟩
  · exact absurd (List.prefix_refl _) (h3 e he)
  · have := h4 e he (List.prefix_refl _)
    have := h1.length_le
    omega
theorem nm_prefix {e : List UInt8} (he : e ∈ ENT) : hpB (nameOf e) = true := by
  unfold hpB
  exact List.any_eq_true.2 ⟨e, he, by simp⟩
theorem nm_pre {e s : List UInt8} (he : e ∈ ENT) (hs : s <+: nameOf e) : hpB s = true := by
  unfold hpB
  exact List.any_eq_true.2 ⟨e, he, by simpa using hs⟩
end Go.Proofs.YtofiaodpjpjedaaGreatDoor

namespace Go.Proofs.YtofiaodpjpjedaaGreatDoor
open Go.RowKit Go.Shelf
set_option maxHeartbeats 1000000
set_option maxRecDepth 100000

theorem behind {e : List UInt8} (he : e ∈ ENT) {T V : ByteArray} {n : Int} {t : List UInt8} (hT : T.data.toList = nameOf e ++ t) (h : LgP T.data.toList n V) :
    ∃ e' ∈ ENT, n = ((nameOf e').length : Nat) ∧ (nameOf e).length ≤ (nameOf e').length ∧ (nameOf e').length ≤ (nameOf e).length + t.length ∧ (T.extract 0 (nameOf e').length).data.toList = nameOf e' ∧
      V = pk (valL (codesOf e')) ∧ ((nameOf e').length = (nameOf e).length → V = pk (valL (codesOf e))) := by
  have hp : nameOf e <+: T.data.toList := by rw [hT]; exact List.prefix_append _ _
  rcases h with ⟨_, _, h3⟩ | ⟨e', he', h1, h2, h3, h4⟩
  · exact absurd hp (h3 e he)
  · have hl := h4 e he hp
    have hl2 := h1.length_le
    rw [hT, List.length_append] at hl2
    refine ⟨e', he', h2, hl, hl2, ?_, pk_eq _ _ h3, fun heq => ?_⟩
    · have e1 : (T.extract 0 (nameOf e').length).data.toList = T.data.toList.take (nameOf e').length := by rw [Lib.extract_data]; simp
      rw [e1]
      exact (List.prefix_iff_eq_take.1 h1).symm
    · have a1 := List.prefix_iff_eq_take.1 h1
      have a2 := List.prefix_iff_eq_take.1 hp
      rw [heq] at a1
      have := ent_name he' he (a1.trans a2.symm)
      rw [← this]
      exact pk_eq _ _ h3
end Go.Proofs.YtofiaodpjpjedaaGreatDoor

namespace Go.Proofs.YtofiaodpjpjedaaGreatDoor
open Go.RowKit Go.Shelf Go.Lib
attribute [local go_sem] Oper.semAt_some
set_option maxHeartbeats 2000000
set_option maxRecDepth 100000

theorem namesCall (w : World) : Calls Tryz.prog 42 #[] w fun e w' => e = .returned (.func (.func 96) #[] #[]) ∧ w' = w := by
  go_enter Tryz.func42, Tryz.ntmps42
  go_wp2
  go_ret
  exact ⟨rfl, rfl⟩

theorem names_nil (W : World) : Sem.run Tryz.prog (binOp BinOp.eql 51 (.func (.func 96) #[] #[]) Value.nilFunc) W = .ok (.bool false) W := by kernel_rfl

/-- What holds between the rounds. -/
def TabI (w : World) (n : Int) (pre : List ByteArray) (W : World) : Prop := ∃ a : Nat, Boxed W w.heap.size 3 (.int .i64 n) ∧ Boxed W (w.heap.size + 1) 4 (.bool false) ∧ Boxed W (w.heap.size + 1 + 1) 3 (.int .i64 a) ∧
  Boxed W (w.heap.size + 1 + 1 + 1) 9 (.string (lastT pre)) ∧ Boxed W (w.heap.size + 1 + 1 + 1 + 1) 3 (.int .i64 pre.length) ∧ AtEnt a (ENT.drop pre.length) ∧ Below w.heap.size w W
theorem TabI.below {w : World} {n : Int} {pre : List ByteArray} {W : World} (h : TabI w n pre W) : Below w.heap.size w W := by
  obtain ⟨_, _, _, _, _, _, _, h⟩ := h
  exact h
/-- What holds where the loop is left. -/
def TabX (w : World) (n : Int) (c : Code) (_pre : List ByteArray) (W : World) : Prop := c = .exit 0 ∧ 0 ≤ n ∧ ∃ (a q : Int), Boxed W w.heap.size 3 (.int .i64 n) ∧ Boxed W (w.heap.size + 1) 4 (.bool false) ∧ Boxed W (w.heap.size + 1 + 1) 3 (.int .i64 a) ∧
  Boxed W (w.heap.size + 1 + 1 + 1 + 1) 3 (.int .i64 q) ∧ Below w.heap.size w W
theorem tabI_far (w : World) (n : Int) (B : Nat) (hB : w.heap.size + 5 ≤ B) : Far B (TabI w n) := by
  rintro s A A' row ⟨a, b0, b1, b2, b3, b4, hat, hb⟩ hg hr
  exact ⟨a, b0.kept hg (fun e => by have := hr _ e.symm; omega), b1.kept hg (fun e => by have := hr _ e.symm; omega), b2.kept hg (fun e => by have := hr _ e.symm; omega), b3.kept hg (fun e => by have := hr _ e.symm; omega), b4.kept hg (fun e => by have := hr _ e.symm; omega), hat,
    hb.grown hg hb.size (fun k e => by have := hr _ e; omega)⟩
theorem tabX_far (w : World) (n : Int) (c : Code) (B : Nat) (hB : w.heap.size + 5 ≤ B) : Far B (TabX w n c) := by
  rintro s A A' row ⟨hc, hn, a, q, b0, b1, b2, b4, hb⟩ hg hr
  exact ⟨hc, hn, a, q, b0.kept hg (fun e => by have := hr _ e.symm; omega), b1.kept hg (fun e => by have := hr _ e.symm; omega), b2.kept hg (fun e => by have := hr _ e.symm; omega), b4.kept hg (fun e => by have := hr _ e.symm; omega),
    hb.grown hg hb.size (fun k e => by have := hr _ e; omega)⟩

end Go.Proofs.YtofiaodpjpjedaaGreatDoor

namespace Go.Proofs.YtofiaodpjpjedaaGreatDoor
open Go.RowKit Go.Shelf Go.Lib
attribute [local go_sem] Oper.semAt_some
set_option maxHeartbeats 1000000
set_option maxRecDepth 100000

def nmB (x : ByteArray) : ByteArray := pk (nameOf x.data.toList)
def vlB (x : ByteArray) : ByteArray := pk (valL (codesOf x.data.toList))
theorem pk_of (A : ByteArray) (l : List UInt8) (h : A.data.toList = l) : A = pk l := by
  subst h; rfl

theorem roundIn_any {m m' l l' : Nat} {f : FuncId} {tmps : Array Value} {assign body : Code} {w : World} {R : Ending → World → Prop} (h : RoundIn Fence.wide m Tryz.prog l f tmps assign body w R) :
    RoundIn (Fence.wide.inRound l') m' Tryz.prog l f tmps assign body w R := ⟨h.1, fun c cs _ => h.2 c cs (room_wide _)⟩

set_option maxHeartbeats 16000000 in
theorem names_in (n : Nat) (hn : 4 ≤ n) (l : Nat) (m : Int) (J Jx : List ByteArray → World → Prop) (W : World) (hM : ∀ pre A, J pre A → Ml m A) (hJ : Far W.heap.size J) (hJx : Far W.heap.size Jx)
    (hY : ∀ pre x W1, J pre W1 → pre ++ [x] <+: partsB 32 NM → W.heap.size ≤ W1.heap.size → YieldAt Fence.wide (n - 1) Tryz.prog l #[.string (nmB x), .string (vlB x)] W1 fun e W' =>
      ∃ b : Bool, e = .returned (.bool b) ∧ KeepHi W.heap.size W1 W' ∧ ((b = true ∧ J (pre ++ [x]) W') ∨ (b = false ∧ Jx (pre ++ [x]) W')))
    (h0 : J [] W) :
    CallsIn Fence.wide n Tryz.prog 96 #[.func (.yield l) #[] #[]] W fun e W' => (∃ v, e = .returned v) ∧ (J (partsB 32 NM) W' ∨ ∃ pre, pre <+: partsB 32 NM ∧ Jx pre W') := by
  have h1 : 1 ≤ n - 1 := by omega
  have hs : NM.size ≤ 100000 := by rw [nm_size]; omega
  refine callsIn_of_wp_marks Tryz.func96 rfl trivial ?_ rfl
  simp only [Tryz.ntmps96, List.size_toArray, List.length_cons, List.length_nil, Nat.reduceAdd, Nat.reduceSub, Array.replicate_succ, Array.replicate_zero, List.push_toArray, List.append_toArray, List.nil_append, List.cons_append]
  generalize hN : (ByteArray.mk (List.toArray (List.append _ _))) = N
  have HN : NM = N := by rw [← hN]; rfl
  clear hN
  rw [HN] at hs hY ⊢
  have HY := Lib.hid hY
  have HM := Lib.hid hM
  have HJ := Lib.hid hJ
  have HJx := Lib.hid hJx
  have HNM := Lib.hid HN
  clear hY hM hJ hJx HN
  gi_wp2_with fail
  refine ⟨trivial, (fun _ => by omega), ?_⟩
  refine (callsIn_wide.2 (splitSeq_at N 32 _)).mono ?_
  rintro e W2 ⟨b0, b1, b2, rfl, c0, c1, c2, h01, h12, hb0, hb1, hb9, hb2⟩
  gi_wp2_with fail
  rw [World.size_alloc] at hb0 hb1 hb9 hb2
  have hB2 : Below W.heap.size W W2 := (below_alloc (Below.refl _ _) _).trans (hb2.mono (by omega))
  have hyb : Boxed W2 W.heap.size 86 (.func (.yield l) #[] #[]) := (hb2.block W.heap.size (by omega)).trans (Boxed.new W _ _)
  have hJ2 : J [] W2 := HJ.out.below h0 hB2
  have hsz2 := hyb.lt
  refine range_stops (n := n) h1 b0 b1 b2 32 N hs rfl rfl h01 h12 c0 c1 c2
    (fun pre A => J pre A ∧ W.heap.size ≤ A.heap.size ∧ Boxed A W.heap.size 86 (.func (.yield l) #[] #[]))
    (fun pre A => Jx pre A)
    (fun s A B row hs hg hr => ⟨HJ.out _ _ _ _ hs.1 hg (fun r e => by have := (hr r e).1; omega), Nat.le_trans hs.2.1 hg.size, hs.2.2.kept hg (fun e => by have := (hr _ e.symm).1; omega)⟩)
    (fun s A B row hs hg hr => HJx.out _ _ _ _ hs hg (fun r e => by have := (hr r e).1; omega))
    (fun xs A r x h hb => ⟨HJ.out _ _ _ (some b1) h.1 (grownBy_setCell' A b1 _) (fun r e => by cases e; omega), by simpa using h.2.1, h.2.2.other (by omega) _⟩)
    ⟨hJ2, by omega, hyb⟩
    (fun x => { tmps := #[.func (.yield l) #[] #[], .pointer (some ⟨W.heap.size, 0, none⟩), .string x, undef, .func (.func 154) #[] #[.pointer (some ⟨b0, 0, none⟩), .pointer (some ⟨b1, 0, none⟩), .pointer (some ⟨b2, 0, none⟩)], .string x, undef, undef, undef, undef, undef, undef, undef, undef, undef], defers := [] }) ?assign ?body ?done ?stop
  case assign =>
    intro l x W K hK
    gi_wp2
    exact hK
  case body =>
    rintro l2 pre x r A ⟨hj, hA, hyA⟩ hpx hlen hx hsz y0 y1 y2
    have HP := Lib.hid (parse x (by omega) m A (HM.out _ _ hj))
    have HPX := Lib.hid hpx
    clear hpx
    gi_wp2_with fail
    refine ⟨trivial, (fun _ => by omega), ?_⟩
    refine (CallsIn.inRound l2 (callsIn_wide.2 HP.out)).mono ?_
    rintro e A2 ⟨N1, C1, rfl, hN1, hC1, hb3⟩
    have hy3 : Boxed A2 W.heap.size 86 (.func (.yield l) #[] #[]) := (hb3.block _ hyA.lt).trans hyA
    have hy3l := hy3.lt
    have hc3 : C1.size ≤ 100000 := by have := codesOf_len x.data.toList; rw [← hC1, Array.length_toList, Array.length_toList] at this; have e1 : C1.data.size = C1.size := rfl; have e2 : x.data.size = x.size := rfl; omega
    have eN : N1 = nmB x := pk_of _ _ hN1
    have hC2 := Lib.hid hC1
    have hN2 := Lib.hid eN
    have kA := hy3.cell
    clear hN1 hC1 eN
    have HV := Lib.hid (value N1 C1 hc3)
    gi_wp2_with fail
    have k0 : (A2.alloc (.cells #[.string N1, .string C1] 97)).cell? ⟨A2.heap.size, 0, none⟩ = some (.string N1) := World.cell?_alloc_at _ _ _ _ rfl
    have k1 : (A2.alloc (.cells #[.string N1, .string C1] 97)).cell? ⟨A2.heap.size, 1, none⟩ = some (.string C1) := World.cell?_alloc_at _ _ _ _ rfl
    have k2 := (hy3.alloc (.cells #[.string N1, .string C1] 97)).cell
    have hb4 : Below A.heap.size A (A2.alloc (.cells #[.string N1, .string C1] 97)) := below_alloc hb3 _
    have hl4 : A2.heap.size < (A2.alloc (.cells #[.string N1, .string C1] 97)).heap.size := by simp
    have hz4 : W.heap.size < (A2.alloc (.cells #[.string N1, .string C1] 97)).heap.size := by simp; omega
    generalize A2.alloc (.cells #[.string N1, .string C1] 97) = A3 at k0 k1 k2 hb4 hl4 hz4 ⊢
    generalize A2.heap.size = B2 at k0 k1 hl4 ⊢
    clear kA
    have HVC : Hid (CallsIn (Fence.wide.inRound l2) (n - 1 - 1 - 1) Tryz.prog 99 #[.agg #[.string N1, .string C1]] A3.drew fun e A4 => e = .returned (.string (vlB x)) ∧
        A4.cell? ⟨B2, 0, none⟩ = some (.string N1) ∧ A4.cell? ⟨B2, 1, none⟩ = some (.string C1) ∧ A4.cell? ⟨W.heap.size, 0, none⟩ = some (.func (.yield l) #[] #[]) ∧ Below A.heap.size A A4) := Lib.hid (by
      refine (CallsIn.inRound l2 (callsIn_wide.2 (HV.out A3.drew))).mono ?_
      rintro e A4 ⟨V, rfl, hV, hb5⟩
      refine ⟨by rw [pk_of V _ (hV.trans (by rw [hC2.out]))]; rfl, (hb5.cell (p := ⟨B2, 0, none⟩) (by simpa using hl4)).trans (by simpa [go_sem] using k0), (hb5.cell (p := ⟨B2, 1, none⟩) (by simpa using hl4)).trans (by simpa [go_sem] using k1),
        (hb5.cell (p := ⟨W.heap.size, 0, none⟩) (by simpa using hz4)).trans (by simpa [go_sem] using k2), below_next (Below.drew hb4) hb5⟩)
    have HYA : Hid (∀ A4, Below A.heap.size A A4 → YieldAt Fence.wide (n - 1) Tryz.prog l #[.string N1, .string (vlB x)] A4 fun e W' =>
      ∃ b : Bool, e = .returned (.bool b) ∧ KeepHi W.heap.size A4 W' ∧ ((b = true ∧ J (pre ++ [x]) W') ∨ (b = false ∧ Jx (pre ++ [x]) W'))) := Lib.hid (by
      intro A4 hb6
      rw [hN2.out]
      exact HY.out pre x A4 (HJ.out.below hj hb6) HPX.out (Nat.le_trans hA hb6.size))
    gi_region_with (first
      | (refine ⟨trivial, (fun _ => by omega), ?_⟩; refine HVC.out.mono ?_; rintro e A4 ⟨rfl, q0, q1, q2, hb6⟩; obtain ⟨fn, tmps, assign, body, hy, hR⟩ := HYA.out A4 hb6)
      | (refine ⟨(fun _ => by omega), ?_⟩; refine (roundIn_any hR).mono ?_; rintro e W3 ⟨b, rfl, hk5, hor⟩))
    all_goals
      have kk : KeepHi W.heap.size A W3 := (KeepHi.below hb6).trans hk5
      have e0 := kk.same b0 (by omega) y0.lt
      have e1 := kk.same b1 (by omega) y1.lt
      have e2 := kk.same b2 (by omega) y2.lt
      have ey := kk.same W.heap.size (Nat.le_refl _) hyA.lt
      have es := kk.size
      rcases hor with ⟨rfl, hj3⟩ | ⟨rfl, hj3⟩
      · gi_wp2
        exact ⟨(kk.up (by omega)).from, e0, e1, e2, hj3, by omega, ey.trans hyA⟩
      · gi_wp2
        exact ⟨(kk.up (by omega)).from, hj3⟩
  case done =>
    rintro D A hD ⟨hj, hA, hyA⟩ hK
    gi_wp2_with fail
    refine ⟨by simp, .inl ⟨_, _, rfl, run_takeDeferred hK, ?_⟩⟩
    exact ⟨_, results_none rfl _ _ _, ⟨_, rfl⟩, .inl (HJ.out _ _ _ (some D) hj (grownBy_putObj' _ _ _) (fun r e => by cases e; omega))⟩
  case stop =>
    rintro D pre A hD hpre hj hK
    gi_wp2_with fail
    refine ⟨by simp, .inl ⟨_, _, rfl, run_takeDeferred hK, ?_⟩⟩
    exact ⟨_, results_none rfl _ _ _, ⟨_, rfl⟩, .inr ⟨pre, hpre, HJx.out _ _ _ (some D) hj (grownBy_putObj' _ _ _) (fun r e => by cases e; omega)⟩⟩
end Go.Proofs.YtofiaodpjpjedaaGreatDoor

namespace Go.Proofs.YtofiaodpjpjedaaGreatDoor
open Go.Lib
set_option maxRecDepth 100000

def shapeN (n : List UInt8) : Bool := n.dropLast.all alU && decide (2 ≤ n.length)
theorem ent_shape_b : (parts 32 NM.data.toList).all (fun e => shapeN (nameOf e)) = true := by decide +kernel
theorem ent_shape {e : List UInt8} (he : e ∈ ENT) : (∀ x ∈ (nameOf e).dropLast, alU x = true) ∧ 2 ≤ (nameOf e).length := by
  have h := List.all_eq_true.1 ent_shape_b e he
  unfold shapeN at h
  rw [Bool.and_eq_true] at h
  exact ⟨List.all_eq_true.1 h.1, of_decide_eq_true h.2⟩
theorem lg_most {e : List UInt8} (he : e ∈ ENT) {s : List UInt8} (hp : nameOf e <+: s) : ∃ e1 ∈ ENT, nameOf e1 <+: s ∧ nameOf e <+: nameOf e1 ∧ lgL s = ((nameOf e1).length, valL (codesOf e1)) := by
  unfold lgL lgT
  rcases lgStep_spec s ENT (0, []) with ⟨h1, h2⟩ | ⟨e1, he1, h1, h2, h3, h4⟩
  · have := h2 e he hp
    have := ent_ne he
    omega
  · exact ⟨e1, he1, h1, List.prefix_of_prefix_length_le hp h1 (h4 e he hp), h2⟩
theorem name_of_pre {e e1 : List UInt8} (he : e ∈ ENT) (he1 : e1 ∈ ENT) (hp : nameOf e <+: nameOf e1) (hl : (nameOf e1).length ≤ (nameOf e).length) : e1 = e := ent_name he1 he (hp.eq_of_length (by have := hp.length_le; omega)).symm
theorem lg_semi {e : List UInt8} (he : e ∈ ENT) (r : List UInt8) (h : (nameOf e).getLast? = some 59) : lgL (nameOf e ++ r) = ((nameOf e).length, valL (codesOf e)) := by
  obtain ⟨e1, he1, hp1, hp, hl⟩ := lg_most he (List.prefix_append (nameOf e) r)
  have hle : (nameOf e1).length ≤ (nameOf e).length := by
    refine Nat.le_of_not_lt fun hlt => ?_
    obtain ⟨t, ht⟩ := hp
    have h2 := (ent_shape he1).1
    obtain ⟨x, u, rfl⟩ : ∃ x u, t = x :: u := by
      cases t with
      | nil => rw [List.append_nil] at ht; rw [ht] at hlt; exact absurd hlt (Nat.lt_irrefl _)
      | cons x u => exact ⟨x, u, rfl⟩
    have hm : (59 : UInt8) ∈ (nameOf e1).dropLast := by
      rw [← ht, List.dropLast_append_of_ne_nil (by simp)]
      exact List.mem_append_left _ (List.mem_of_getLast? h)
    have := h2 59 hm
    revert this
    decide
  rw [hl, name_of_pre he he1 hp hle]
theorem lg_space {e : List UInt8} (he : e ∈ ENT) (r : List UInt8) : lgL (nameOf e ++ 32 :: r) = ((nameOf e).length, valL (codesOf e)) := by
  rw [lgOk.cut (nameOf e) 32 r (by decide) (by decide)]
  obtain ⟨e1, he1, hp1, hp, hl⟩ := lg_most he (List.prefix_refl (nameOf e))
  rw [hl, name_of_pre he he1 hp hp1.length_le]
theorem name_head {e : List UInt8} (he : e ∈ ENT) : ∃ c t, nameOf e = c :: t ∧ alU c = true := by
  obtain ⟨h1, h2⟩ := ent_shape he
  cases hn : nameOf e with
  | nil => rw [hn] at h2; simp at h2
  | cons c t =>
    cases t with
    | nil => rw [hn] at h2; simp at h2
    | cons d t =>
      refine ⟨c, d :: t, rfl, h1 c ?_⟩
      rw [hn]
      simp
theorem ref_named (attr : Bool) {e s : List UInt8} (he : e ∈ ENT) (hp : nameOf e <+: s) (hl : lgL s = ((nameOf e).length, valL (codesOf e))) (hq : (attr && !(hasSuffix (s.take (nameOf e).length) [59]) && endsRef (s.drop (nameOf e).length)) = false) :
    refL lgL attr s = (valL (codesOf e), (nameOf e).length) := by
  obtain ⟨c, t, hn, hc⟩ := name_head he
  obtain ⟨r, hr⟩ := hp
  have h0 := ent_ne he
  rw [hn, List.cons_append] at hr
  have e1 : refL lgL attr s = namedL lgL attr s := by
    rw [← hr]
    show (if alU c then _ else _) = _
    rw [if_pos hc]
  rw [e1]
  unfold namedL
  rw [hl]
  simp only
  rw [if_neg (by omega), hq]
  rfl
theorem suf_59 {n : List UInt8} (h : n.getLast? = some 59) : hasSuffix n [59] = true := by
  obtain ⟨u, rfl⟩ : ∃ u, n = u ++ [59] := List.getLast?_eq_some_iff.1 h
  unfold hasSuffix
  rw [List.isSuffixOf_iff_suffix]
  exact List.suffix_append u [59]
/-- A name that ends with ";" is read as its value, whatever follows. -/
theorem ref_semiN (attr : Bool) {e : List UInt8} (he : e ∈ ENT) (r : List UInt8) (h : (nameOf e).getLast? = some 59) : refL lgL attr (nameOf e ++ r) = (valL (codesOf e), (nameOf e).length) := by
  refine ref_named attr he (List.prefix_append _ r) (lg_semi he r h) ?_
  rw [List.take_left, suf_59 h]
  simp
/-- Any name is read as its value if a space follows. -/
theorem ref_spaceN (attr : Bool) {e : List UInt8} (he : e ∈ ENT) (r : List UInt8) : refL lgL attr (nameOf e ++ 32 :: r) = (valL (codesOf e), (nameOf e).length) := by
  refine ref_named attr he (List.prefix_append _ _) (lg_space he r) ?_
  rw [List.drop_left]
  have : endsRef (32 :: r) = false := rfl
  rw [this, Bool.and_false]
end Go.Proofs.YtofiaodpjpjedaaGreatDoor

namespace Go.Proofs.YtofiaodpjpjedaaGreatDoor
open Go.Lib
set_option maxRecDepth 100000

def noEnd : List UInt8 → Bool
  | [] => true
  | b :: t => !([45, 45, 62].isPrefixOf (b :: t)) && !([45, 45, 33, 62].isPrefixOf (b :: t)) && noEnd t
def fitL (l : List UInt8) : Bool := !([62].isPrefixOf l) && !([45, 62].isPrefixOf l) && noEnd l

/-- Where no comment ends, a byte is data. -/
theorem comS_or (b : UInt8) (t : List UInt8) : (comS (b :: t)).1 = [] ∨ (comS (b :: t) = pre (nul1 b) 1 (comS t) ∧ [45, 45, 62].isPrefixOf (b :: t) = false ∧ [45, 45, 33, 62].isPrefixOf (b :: t) = false) := by
  rw [comS]
  by_cases h1 : [45, 45, 62].isPrefixOf (b :: t) = true
  · rw [if_pos h1]; exact .inl rfl
  · rw [if_neg h1]
    by_cases h2 : [45, 45, 33, 62].isPrefixOf (b :: t) = true
    · rw [if_pos h2]; exact .inl rfl
    · rw [if_neg h2]
      split
      · exact .inl rfl
      · split
        · exact .inl rfl
        · split
          · exact .inl rfl
          · exact .inr ⟨rfl, Bool.eq_false_iff.2 h1, Bool.eq_false_iff.2 h2⟩
theorem comS_hd {c : UInt8} (hc : c ≠ 239) : ∀ {t x : List UInt8}, (comS t).1 = c :: x → ∃ t', t = c :: t' ∧ (comS t').1 = x ∧ [45, 45, 62].isPrefixOf t = false ∧ [45, 45, 33, 62].isPrefixOf t = false
  | [], _, h => by cases h
  | b :: t, x, h => by
    rcases comS_or b t with h0 | ⟨h1, h2, h3⟩
    · rw [h0] at h; cases h
    · rw [h1] at h
      have h' : nul1 b ++ (comS t).1 = c :: x := h
      unfold nul1 at h'
      by_cases hb : b = 0
      · rw [if_pos hb] at h'
        injection h' with h4 _
        exact absurd h4.symm hc
      · rw [if_neg hb] at h'
        injection h' with h4 h5
        subst h4
        exact ⟨t, rfl, h5, h2, h3⟩
theorem pre_of {p l : List UInt8} (h : p.isPrefixOf l = true) : ∃ r, l = p ++ r := by
  obtain ⟨r, hr⟩ := List.isPrefixOf_iff_prefix.1 h
  exact ⟨r, hr.symm⟩
theorem comS_no1 (t : List UInt8) : [45, 45, 62].isPrefixOf (comS t).1 = false := by
  rw [Bool.eq_false_iff]
  intro h
  obtain ⟨r, hr⟩ := pre_of h
  obtain ⟨t1, rfl, h1, hn, _⟩ := comS_hd (by decide) hr
  obtain ⟨t2, rfl, h2, _, _⟩ := comS_hd (by decide) h1
  obtain ⟨t3, rfl, h3, _, _⟩ := comS_hd (by decide) h2
  simp [List.isPrefixOf] at hn
theorem comS_no2 (t : List UInt8) : [45, 45, 33, 62].isPrefixOf (comS t).1 = false := by
  rw [Bool.eq_false_iff]
  intro h
  obtain ⟨r, hr⟩ := pre_of h
  obtain ⟨t1, rfl, h1, _, hn⟩ := comS_hd (by decide) hr
  obtain ⟨t2, rfl, h2, _, _⟩ := comS_hd (by decide) h1
  obtain ⟨t3, rfl, h3, _, _⟩ := comS_hd (by decide) h2
  obtain ⟨t4, rfl, h4, _, _⟩ := comS_hd (by decide) h3
  simp [List.isPrefixOf] at hn
theorem comS_noEnd : ∀ t : List UInt8, noEnd (comS t).1 = true
  | [] => rfl
  | b :: t => by
    have ih := comS_noEnd t
    have n1 := comS_no1 (b :: t)
    have n2 := comS_no2 (b :: t)
    rcases comS_or b t with h0 | ⟨h1, _, _⟩
    · rw [h0]; rfl
    · rw [h1] at n1 n2 ⊢
      have e : (pre (nul1 b) 1 (comS t)).1 = nul1 b ++ (comS t).1 := rfl
      rw [e] at n1 n2 ⊢
      unfold nul1 at n1 n2 ⊢
      by_cases hb : b = 0
      · rw [if_pos hb]
        show noEnd (239 :: 191 :: 189 :: (comS t).1) = true
        simp [noEnd, List.isPrefixOf, ih]
      · rw [if_neg hb] at n1 n2 ⊢
        have n1' : [45, 45, 62].isPrefixOf (b :: (comS t).1) = false := n1
        have n2' : [45, 45, 33, 62].isPrefixOf (b :: (comS t).1) = false := n2
        show noEnd (b :: (comS t).1) = true
        rw [noEnd, n1', n2', ih]
        rfl
/-- What any comment is read as is data that is read back. -/
theorem com_fit (u : List UInt8) : fitL (comL u).1 = true := by
  unfold comL
  by_cases h1 : [62].isPrefixOf u = true
  · rw [if_pos h1]; rfl
  · rw [if_neg h1]
    by_cases h2 : [45, 62].isPrefixOf u = true
    · rw [if_pos h2]; rfl
    · rw [if_neg h2]
      unfold fitL
      have a1 : [62].isPrefixOf (comS u).1 = false := by
        rw [Bool.eq_false_iff]
        intro h
        obtain ⟨r, hr⟩ := pre_of h
        obtain ⟨t1, rfl, _, _, _⟩ := comS_hd (by decide) hr
        simp [List.isPrefixOf] at h1
      have a2 : [45, 62].isPrefixOf (comS u).1 = false := by
        rw [Bool.eq_false_iff]
        intro h
        obtain ⟨r, hr⟩ := pre_of h
        obtain ⟨t1, rfl, h3, _, _⟩ := comS_hd (by decide) hr
        obtain ⟨t2, rfl, _, _, _⟩ := comS_hd (by decide) h3
        simp [List.isPrefixOf] at h2
      rw [a1, a2, comS_noEnd]
      rfl

theorem no_end1 (b : UInt8) (d m : List UInt8) (h : [45, 45, 62].isPrefixOf (b :: d) = false) : [45, 45, 62].isPrefixOf (b :: (d ++ 45 :: 45 :: 62 :: m)) = false := by
  match d, h with
  | [], _ => simp [List.isPrefixOf]
  | [x], _ => simp [List.isPrefixOf]
  | x :: y :: d, h => simpa [List.isPrefixOf] using h
theorem no_end2 (b : UInt8) (d m : List UInt8) (h : [45, 45, 33, 62].isPrefixOf (b :: d) = false) : [45, 45, 33, 62].isPrefixOf (b :: (d ++ 45 :: 45 :: 62 :: m)) = false := by
  match d, h with
  | [], _ => simp [List.isPrefixOf]
  | [x], _ => simp [List.isPrefixOf]
  | [x, y], _ => simp [List.isPrefixOf]
  | x :: y :: z :: d, h => simpa [List.isPrefixOf] using h
theorem comS_back (m : List UInt8) : ∀ d : List UInt8, (∀ x ∈ d, x ≠ 0) → noEnd d = true → comS (d ++ 45 :: 45 :: 62 :: m) = (d, d.length + 3)
  | [], _, _ => by
    show comS (45 :: 45 :: 62 :: m) = _
    rw [comS, if_pos (by simp [List.isPrefixOf])]
    rfl
  | b :: d, hz, hn => by
    rw [noEnd, Bool.and_eq_true, Bool.and_eq_true] at hn
    obtain ⟨⟨h1, h2⟩, h3⟩ := hn
    have e1 := no_end1 b d m (by rw [Bool.not_eq_true'] at h1; exact h1)
    have e2 := no_end2 b d m (by rw [Bool.not_eq_true'] at h2; exact h2)
    have hl : 4 ≤ (b :: (d ++ 45 :: 45 :: 62 :: m)).length := by simp; omega
    have ih := comS_back m d (fun x hx => hz x (by simp [hx])) h3
    rw [List.cons_append, comS, e1, e2, if_neg Bool.false_ne_true, if_neg Bool.false_ne_true, if_neg (fun e => by rw [e] at hl; simp at hl), if_neg (fun e => by rw [e] at hl; simp at hl), if_neg (fun e => by rw [e] at hl; simp at hl), ih]
    have hb : nul1 b = [b] := by unfold nul1; exact if_neg (hz b (by simp))
    rw [hb]
    show ([b] ++ d, 1 + (d.length + 3)) = _
    rw [List.length_cons]
    congr 1
    omega
/-- Such data is read back. -/
theorem com_back (d m : List UInt8) (hz : ∀ x ∈ d, x ≠ 0) (hf : fitL d = true) : comL (d ++ 45 :: 45 :: 62 :: m) = (d, d.length + 3) := by
  unfold fitL at hf
  rw [Bool.and_eq_true, Bool.and_eq_true] at hf
  obtain ⟨⟨h1, h2⟩, h3⟩ := hf
  have a1 : [62].isPrefixOf (d ++ 45 :: 45 :: 62 :: m) = false := by
    match d, h1 with
    | [], _ => simp [List.isPrefixOf]
    | x :: d, h => simpa [List.isPrefixOf] using h
  have a2 : [45, 62].isPrefixOf (d ++ 45 :: 45 :: 62 :: m) = false := by
    match d, h2 with
    | [], _ => simp [List.isPrefixOf]
    | [x], _ => simp [List.isPrefixOf]
    | x :: y :: d, h => rw [Bool.not_eq_true'] at h; exact h
  unfold comL
  rw [a1, a2, if_neg Bool.false_ne_true, if_neg Bool.false_ne_true]
  exact comS_back m d hz h3
end Go.Proofs.YtofiaodpjpjedaaGreatDoor

namespace Go.Proofs.YtofiaodpjpjedaaGreatDoor
open Go.RowKit Go.Shelf Go.Lib
set_option maxHeartbeats 4000000
set_option maxRecDepth 100000

theorem noEnd_drop {s : ByteArray} {k : Nat} (hk : k < s.size) : noEnd (s.data.toList.drop k) = (!([45, 45, 62].isPrefixOf (s.data.toList.drop k)) && !([45, 45, 33, 62].isPrefixOf (s.data.toList.drop k)) && noEnd (s.data.toList.drop (k + 1))) := by
  rw [drop_byte s k hk, noEnd]
theorem comS_len : ∀ t : List UInt8, (comS t).1.length ≤ 3 * t.length
  | [] => Nat.zero_le _
  | b :: t => by
    have ih := comS_len t
    rcases comS_or b t with h0 | ⟨h1, _, _⟩
    · rw [h0]; exact Nat.zero_le _
    · rw [h1]
      have e : (pre (nul1 b) 1 (comS t)).1 = nul1 b ++ (comS t).1 := rfl
      have : (nul1 b).length ≤ 3 := by unfold nul1; split <;> simp
      rw [e, List.length_append, List.length_cons]
      omega
theorem comL_len (t : List UInt8) : (comL t).1.length ≤ 3 * t.length := by
  unfold comL
  split
  · exact Nat.zero_le _
  · split
    · exact Nat.zero_le _
    · exact comS_len t
theorem tl0 (B : ByteArray) : clip B 0 = 0 ∧ tlS B 0 = B.data.toList := by
  have : clip B 0 = 0 := by unfold clip; omega
  exact ⟨this, by unfold tlS; rw [this]; rfl⟩
end Go.Proofs.YtofiaodpjpjedaaGreatDoor

namespace Go.Proofs.YtofiaodpjpjedaaGreatDoor
open Go.RowKit Go.Shelf Go.Lib

theorem app_list (a b : ByteArray) : (a ++ b).data.toList = a.data.toList ++ b.data.toList := by rw [ByteArray.data_append, Array.toList_append]
/-- A call of Reference whose answer is known. -/
theorem refIs (B V : ByteArray) (attr : Bool) (x : Int) (N : Nat) (h : refL lgL attr B.data.toList = (V.data.toList, N)) (hx : x = (N : Int)) (hB : B.size ≤ 10000000) (m : Int) (w : World) (hc : CtlW w) (hm : w.cell? ⟨1, 0, none⟩ = some (.int .i64 m)) :
    Calls Tryz.prog 16 #[.string B, .int .i64 0, .bool attr] w fun e w' => e = .returned (.tuple #[.string V, .int .i64 x]) ∧ Below w.heap.size w w' := by
  refine (referenceC lgL (Lib.hid lgOk) B 0 attr m hB w hc hm).mono ?_
  rintro e w' ⟨V1, N1, rfl, h1, h2, _, hb⟩
  rw [(tl0 B).2, h] at h1 h2
  rw [(tl0 B).1, list_bytes _ _ h1, h2, hx, Nat.zero_add]
  exact ⟨rfl, hb⟩
end Go.Proofs.YtofiaodpjpjedaaGreatDoor

namespace Go.Proofs.YtofiaodpjpjedaaGreatDoor
open Go.RowKit Go.Shelf Go.Lib
attribute [local go_sem] Oper.semAt_some
set_option maxHeartbeats 2000000
set_option maxRecDepth 100000

/-- What holds between the rounds. -/
def NamI (w : World) (n : Int) (s : ByteArray) (attr : Bool) (pre : List ByteArray) (W : World) : Prop := Boxed W w.heap.size 3 (.int .i64 n) ∧ Boxed W (w.heap.size + 1) 9 (.string s) ∧ Boxed W (w.heap.size + 1 + 1) 4 (.bool attr) ∧ Boxed W (w.heap.size + 1 + 1 + 1) 4 (.bool false) ∧
  Boxed W (w.heap.size + 1 + 1 + 1 + 1) 3 (.int .i64 pre.length) ∧ Below w.heap.size w W
/-- What holds where the loop is left. -/
def NamX (w : World) (c : Code) (_pre : List ByteArray) (W : World) : Prop := c = .ret ∧ Boxed W (w.heap.size + 1 + 1 + 1) 4 (.bool true) ∧ Below w.heap.size w W
theorem namI_far (w : World) (n : Int) (s : ByteArray) (attr : Bool) (B : Nat) (hB : w.heap.size + 5 ≤ B) : Far B (NamI w n s attr) := by
  rintro s A A' row ⟨b0, b1, b2, b3, b4, hb⟩ hg hr
  exact ⟨b0.kept hg (fun e => by have := hr _ e.symm; omega), b1.kept hg (fun e => by have := hr _ e.symm; omega), b2.kept hg (fun e => by have := hr _ e.symm; omega), b3.kept hg (fun e => by have := hr _ e.symm; omega), b4.kept hg (fun e => by have := hr _ e.symm; omega),
    hb.grown hg hb.size (fun k e => by have := hr _ e; omega)⟩
theorem namX_far (w : World) (c : Code) (B : Nat) (hB : w.heap.size + 5 ≤ B) : Far B (NamX w c) := by
  rintro s A A' row ⟨hc, b2, hb⟩ hg hr
  exact ⟨hc, b2.kept hg (fun e => by have := hr _ e.symm; omega), hb.grown hg hb.size (fun k e => by have := hr _ e; omega)⟩
theorem names_seqN (m : Int) : SeqFar 7 96 #[] (fun x => #[.string (nmT x), .string (vlT x)]) (Ml m) (partsB 32 NM) :=
  fun l J Jx W hM hJ hJx hY h0 => names_in 7 (by omega) l m J Jx W hM hJ hJx hY h0
/-- What is read for a name of the table. -/
theorem nameRead (e : List UInt8) (he : e ∈ ENT) (attr : Bool) (S : ByteArray) (r : List UInt8) (h : (S.data.toList = nameOf e ++ r ∧ (nameOf e).getLast? = some 59) ∨ S.data.toList = nameOf e ++ 32 :: r) : refL lgL attr S.data.toList = ((pk (valL (codesOf e))).data.toList, (nameOf e).length) := by
  rw [pk_list]
  rcases h with ⟨h, h59⟩ | h
  · rw [h, ref_semiN attr he r h59]
  · rw [h, ref_spaceN attr he r]

theorem namesBack_in (m : Int) (k : Nat) (hk : 8 ≤ k) (HSEQ : SeqFar (k - 1) 96 #[] (fun x => #[.string (nmT x), .string (vlT x)]) (Ml m) (partsB 32 NM)) (n : Int) (s : ByteArray) (attr : Bool) (hs : s.size ≤ 4096) (w : World) (hm : Ml m w) (hc : CtlW w) :
    CallsIn Fence.wide k Tryz.prog 10 #[.int .i64 n, .string s, .bool attr] w fun e w' => e = .returned (.bool true) ∧ Below w.heap.size w w' := by
  have h1 : 1 ≤ k := by omega
  have HM := Lib.hid hm
  have HQ := Lib.hid HSEQ
  have HCT := Lib.hid hc
  have HS := Lib.hid (small02 s)
  rw [decide_eq_true hs] at HS
  clear hm hc HSEQ
  refine callsIn_of_wp_marks Tryz.func10 rfl trivial ?_ rfl
  simp only [Tryz.ntmps10, List.size_toArray, List.length_cons, List.length_nil, Nat.reduceAdd, Nat.reduceSub, Array.replicate_succ, Array.replicate_zero, List.push_toArray, List.append_toArray, List.nil_append, List.cons_append]
  gi_wp2_with fail
  refine ⟨trivial, ?_⟩
  refine (callsIn_wide.2 (HS.out _)).mono ?_
  rintro e W1 ⟨rfl, rfl⟩
  gi_wp2_with fail
  refine ⟨trivial, ?_⟩
  refine (callsIn_wide.2 (namesCall _)).mono ?_
  rintro e W2 ⟨rfl, rfl⟩
  have hnil := names_nil
  gi_wp2_with fail
  clear hnil
  generalize hV0 : ((((w.alloc _).alloc _).alloc _).alloc _).alloc _ = V0
  have z0 : Boxed V0 w.heap.size 3 (.int .i64 n) := by rw [← hV0]; exact ((((Boxed.new _ _ _).alloc _).alloc _).alloc _).alloc _
  have z1 : Boxed V0 (w.heap.size + 1) 9 (.string s) := by rw [← hV0]; exact (((boxed_new _ _ _ _ (by simp)).alloc _).alloc _).alloc _
  have z2 : Boxed V0 (w.heap.size + 1 + 1) 4 (.bool attr) := by rw [← hV0]; exact ((boxed_new _ _ _ _ (by simp)).alloc _).alloc _
  have z3 : Boxed V0 (w.heap.size + 1 + 1 + 1) 4 (.bool false) := by rw [← hV0]; exact (boxed_new _ _ _ _ (by simp)).alloc _
  have z4 : Boxed V0 (w.heap.size + 1 + 1 + 1 + 1) 3 (.int .i64 0) := by rw [← hV0]; exact boxed_new _ _ _ _ (by simp)
  have zb : Below w.heap.size w V0 := by rw [← hV0]; (repeat' (first | (with_reducible exact Below.refl _ _) | (with_reducible assumption) | (with_reducible refine below_alloc ?_ _) | (with_reducible refine Below.drew ?_) | (with_reducible refine _root_.Go.below_drewN ?_ _) | (with_reducible refine Below.setCell ?_ ?_ _) | go_size | (refine below_next ?_ (by assumption))))
  have zs : V0.heap.size = w.heap.size + 5 := by rw [← hV0]; simp
  clear hV0
  refine range_far (n := k) h1 rfl (enters_of Tryz.func96 (by kernel_rfl) rfl) HQ.out (fun _ => rfl)
    (NamI w n s attr) (fun c => NamX w c) (fun pre W h => carry HM.out h.2.2.2.2.2) (namI_far w n s attr _ (by omega)) (fun c => namX_far w c _ (by omega))
    ⟨z0, z1, z2, z3, z4, zb⟩
    (fun x => { tmps := #[.int .i64 n, .string s, .bool attr, .pointer (some ⟨w.heap.size, 0, none⟩), .pointer (some ⟨w.heap.size + 1, 0, none⟩), .pointer (some ⟨w.heap.size + 1 + 1, 0, none⟩), .pointer (some ⟨w.heap.size + 1 + 1 + 1, 0, none⟩), .func (.func 96) #[] #[], .pointer (some ⟨w.heap.size + 1 + 1 + 1 + 1, 0, none⟩), .string (nmT x), .string (vlT x), undef, .string s, .bool true, .bool false, undef, .func (.func 96) #[] #[], .func (.func 96) #[] #[], .bool false, .func (.func 96) #[] #[], .string (nmT x), .string (vlT x), undef, undef, undef, undef, undef, undef, undef, undef, undef, undef, undef, undef, undef, undef, undef, undef, undef, undef, undef, undef, undef, undef, undef, undef, undef, undef, undef, undef, undef, undef, undef, undef, undef, undef, undef, undef, undef], defers := [] }) ?assign ?body ?done ?stop
  case assign =>
    intro l x W K hK
    gi_wp2
    exact hK
  case body =>
    rintro l pre x W ⟨b0, b1, b2, b3, b4, hB⟩ hpx hsz
    obtain ⟨e, r, hd, rfl, he, hr, hlen, hlast⟩ := pre_step hpx
    have k0 := b0.cell
    have k1 := b1.cell
    have k2 := b2.cell
    have k4 := b4.cell
    have f4 := b4.frozen
    have hleni : (pre.length : Int) < 2231 := by omega
    obtain ⟨NX, hnx⟩ : ∃ NX, NX = nmT (pk e) := ⟨_, rfl⟩
    obtain ⟨VX, hvx⟩ : ∃ VX, VX = vlT (pk e) := ⟨_, rfl⟩
    rw [← hnx, ← hvx]
    have HNX := Lib.hid (hnx.trans (nm_pk e))
    have HVX := Lib.hid (hvx.trans (vl_pk e))
    have HEM := Lib.hid he
    have HPL := Lib.hid (show ((pre ++ [pk e]).length : Nat) = pre.length + 1 by simp)
    obtain ⟨q, hq⟩ : ∃ q : Int, q = pre.length := ⟨_, rfl⟩
    rw [← hq] at k4 b4
    have HMV : Hid (∀ W', Below W.heap.size W W' → Boxed W' w.heap.size 3 (.int .i64 n) ∧ Boxed W' (w.heap.size + 1) 9 (.string s) ∧ Boxed W' (w.heap.size + 1 + 1) 4 (.bool attr) ∧ Boxed W' (w.heap.size + 1 + 1 + 1) 4 (.bool false) ∧
        Boxed W' (w.heap.size + 1 + 1 + 1 + 1) 3 (.int .i64 q) ∧ Below w.heap.size w W') := Lib.hid (fun W' h =>
      ⟨(h.block _ b0.lt).trans b0, (h.block _ b1.lt).trans b1, (h.block _ b2.lt).trans b2, (h.block _ b3.lt).trans b3, (h.block _ b4.lt).trans b4, below_next hB h⟩)
    have hw1 : wrap64 (q + 1) = ((pre ++ [pk e]).length : Int) := by
      rw [show wrap64 (q + 1) = q + 1 from IntWalk.wrap64_in _ (by omega), HPL.out, hq]
      rfl
    have HFIN : Hid (NamI w n s attr (pre ++ [pk e]) ((W.setCell ⟨w.heap.size + 1 + 1 + 1 + 1, 0, none⟩ (.int .i64 (wrap64 (q + 1))))) ∧ KeepHi V0.heap.size W ((W.setCell ⟨w.heap.size + 1 + 1 + 1 + 1, 0, none⟩ (.int .i64 (wrap64 (q + 1)))))) := Lib.hid (by
      refine ⟨⟨b0.other (by omega) _, b1.other (by omega) _, b2.other (by omega) _, b3.other (by omega) _, ?_, hB.setCell (p := ⟨w.heap.size + 1 + 1 + 1 + 1, 0, none⟩) (by show w.heap.size ≤ w.heap.size + 1 + 1 + 1 + 1; omega) _⟩, ?_⟩
      · rw [← hw1]
        exact b4.set _
      · refine ⟨by simp, fun k hk hk2 => ?_⟩
        exact Below.heap_setCell _ _ _ _ (by simp; omega))
    have HZ := Lib.hid zs
    have HSM := Lib.hid hs
    clear hw1 hq hnx hvx he hd hr hlen hlast hleni hpx hsz zs b0 b1 b2 b3 b4 hB hk hs HS
    by_cases hc : q = n
    · have hc1 : (q == n) = true := beq_iff_eq.2 hc
      clear hc
      have hnl : NX.size = (nameOf e).length := by rw [HNX.out]; simp [pk]; rfl
      have hn1 : NX.size ≤ 29726 := by have := nameOf_len e; have := ent_len e HEM.out; omega
      have hn2 : 0 < NX.size := by have := ent_ne HEM.out; omega
      have hs1 := HSM.out
      have HNL := Lib.hid hnl
      clear hnl
      have hne : NX.toList.isEmpty = false := by
        rw [List.isEmpty_eq_false_iff]
        intro h
        have h2 := congrArg List.length h
        rw [ByteArray.toList_eq, size_list] at h2
        exact absurd h2 (by show ¬ NX.size = 0; omega)
      have hlast : (nameOf e).getLast? = some (NX[NX.size - 1]'(by omega)) := by
        have h1 : (nameOf e) = NX.data.toList := by rw [HNX.out, pk_list]
        rw [h1, List.getLast?_eq_getElem?, size_list, Array.getElem?_toList]
        exact Array.getElem?_eq_getElem (xs := NX.data) (by show NX.size - 1 < NX.size; omega)
      obtain ⟨S, hS⟩ : ∃ S : Bool → ByteArray, S = fun sp => if sp then NX ++ ⟨#[32]⟩ ++ s else NX ++ s := ⟨_, rfl⟩
      have hlen : ∀ sp, (S sp).size ≤ 40000 := by
        intro sp
        rw [hS]
        cases sp
        · show (NX ++ s).size ≤ _
          rw [ByteArray.size_append]
          omega
        · show (NX ++ ⟨#[32]⟩ ++ s).size ≤ _
          rw [ByteArray.size_append, ByteArray.size_append]
          show NX.size + 1 + s.size ≤ _
          omega
      have hrd : ∀ sp, (((NX[NX.size - 1]'(by omega)).toNat : Int) != 59) = sp → refL lgL attr (S sp).data.toList = (VX.data.toList, NX.size) := by
        intro sp hsp
        rw [HVX.out, HNL.out]
        refine nameRead e HEM.out attr (S sp) s.data.toList ?_
        rw [hS]
        cases sp
        · refine .inl ⟨?_, ?_⟩
          · show (NX ++ s).data.toList = _
            rw [app_list, HNX.out, pk_list]
          · rw [hlast]
            have h3 : ((NX[NX.size - 1]'(by omega)).toNat : Int) = 59 := by simpa using hsp
            have h4 : NX[NX.size - 1]'(by omega) = 59 := UInt8.toNat_inj.1 (by show (NX[NX.size - 1]'(by omega)).toNat = 59; omega)
            rw [h4]
        · refine .inr ?_
          show (NX ++ ⟨#[32]⟩ ++ s).data.toList = _
          rw [app_list, app_list, HNX.out, pk_list, List.append_assoc]
          rfl
      have HRI := Lib.hid (fun sp h => refIs (S sp) VX attr (NX.size : Int) NX.size (hrd sp h) rfl (by have := hlen sp; omega) m W (HCT.out.below (HMV.out _ (Below.refl _ _)).2.2.2.2.2) (carry HM.out (HMV.out _ (Below.refl _ _)).2.2.2.2.2))
      have HSE := Lib.hid hS
      clear hlast hS hlen hrd
      obtain ⟨bb, hbb⟩ : ∃ bb, (((NX[NX.size - 1]'(by omega)).toNat : Int) != 59) = bb := ⟨_, rfl⟩
      have hri := HRI.out bb hbb
      have HRJ := Lib.hid hri
      clear hri HRI
      cases bb
      all_goals
        gi_wp2_with fail
        rw [HSE.out] at HRJ
        refine ⟨trivial, (fun h => by cases h), ?_⟩
        refine (CallsIn.inRound l (callsIn_wide.2 HRJ.out)).mono ?_
        rintro e1 W1 ⟨rfl, hb1⟩
        have bt := hb1
        gi_wp2_with fail
        refine ⟨trivial, (fun h => by cases h), ?_⟩
        refine (CallsIn.inRound l (callsIn_wide.2 (kof _ _ W1))).mono ?_
        rintro e2 W2 ⟨rfl, hb2⟩
        replace bt := below_next bt hb2
        gi_wp2_with fail
        refine ⟨trivial, (fun h => by cases h), ?_⟩
        refine (CallsIn.inRound l (callsIn_wide.2 (kof _ _ W2))).mono ?_
        rintro e3 W3 ⟨rfl, hb3⟩
        replace bt := below_next bt hb3
        have HKN := Lib.hid (known02 m W3 (HCT.out.below (HMV.out _ bt).2.2.2.2.2) (carry HM.out (HMV.out _ bt).2.2.2.2.2))
        gi_wp2_with fail
        refine ⟨trivial, (fun h => by cases h), ?_⟩
        refine (CallsIn.inRound l (callsIn_wide.2 HKN.out)).mono ?_
        rintro e4 W4 ⟨rfl, hb4⟩
        replace bt := below_next bt hb4
        obtain ⟨j0, j1, j2, j3, j4, j5⟩ := HMV.out _ bt
        have c2 := j3.cell
        have f2 := j3.frozen
        have s2 := j3.set (.bool true)
        have hz := HZ.out
        have hk : KeepHi V0.heap.size W (W4.setCell ⟨w.heap.size + 1 + 1 + 1, 0, none⟩ (.bool true)) :=
          ⟨by simpa using bt.size, fun k hk hk2 => (Below.heap_setCell _ _ _ _ (by simp; omega)).trans (bt.block k hk2)⟩
        have hf := j5.setCell (p := ⟨w.heap.size + 1 + 1 + 1, 0, none⟩) (by show w.heap.size ≤ w.heap.size + 1 + 1 + 1; omega) (.bool true)
        have HF : Hid (farPost V0.heap.size (NamI w n s attr) (fun c => NamX w c) (pre ++ [pk e]) W .ret ⟨#[], []⟩ (W4.setCell ⟨w.heap.size + 1 + 1 + 1, 0, none⟩ (.bool true))) := Lib.hid ⟨hk, rfl, s2, hf⟩
        clear j0 j1 j2 j3 j4 j5 s2 hz hk hf
        gi_wp2_with fail
        exact HF.out
    · have hc1 : (q == n) = false := by rw [beq_eq_false_iff_ne]; exact hc
      clear hc
      gi_wp2
      exact ⟨HFIN.out.2, HFIN.out.1⟩
  case done =>
    rintro D W hD ⟨b0, b1, b2, b3, b4, hB⟩ hK
    have HKN := Lib.hid (known02 m W (HCT.out.below hB) (carry HM.out hB))
    have HD := Lib.hid hD
    have HZ := Lib.hid zs
    clear hk hD zs
    gi_wp2_with fail
    refine ⟨trivial, ?_⟩
    refine (callsIn_wide.2 HKN.out).mono ?_
    rintro e W3 ⟨rfl, hb3⟩
    have c1 : Boxed W3 (w.heap.size + 1 + 1 + 1) 4 (.bool false) := (hb3.block _ b3.lt).trans b3
    have kc := c1.cell
    have fc := c1.frozen
    have hs1 := c1.set (.bool true)
    have hB3 := below_next hB hb3
    have hK3 : W3.heap[D]? = some (.deferred (some [])) := (hb3.block _ (Array.getElem?_eq_some_iff.1 hK).1).trans hK
    have hK2 : (W3.setCell ⟨w.heap.size + 1 + 1 + 1, 0, none⟩ (.bool true)).heap[D]? = some (.deferred (some [])) := (Below.heap_setCell _ _ _ D (by have := HD.out; have := HZ.out; show D ≠ w.heap.size + 1 + 1 + 1; omega)).trans hK3
    clear hK hK3
    gi_wp2_with fail
    refine ⟨by simp, .inl ⟨_, _, rfl, run_takeDeferred hK2, ?_⟩⟩
    have hDn : D ≠ w.heap.size + 1 + 1 + 1 := by have := HD.out; have := HZ.out; omega
    have hcz : ∀ o, ((W3.setCell ⟨w.heap.size + 1 + 1 + 1, 0, none⟩ (.bool true)).putObj D o).cell? ⟨w.heap.size + 1 + 1 + 1, 0, none⟩ = some (.bool true) := fun o => (Boxed.cell (t := 4) (show ((W3.setCell ⟨w.heap.size + 1 + 1 + 1, 0, none⟩ (.bool true)).putObj D o).heap[w.heap.size + 1 + 1 + 1]? = _ from (World.putObj_heap_other (fun e => hDn e.symm)).trans hs1))
    refine ⟨.bool true, by simp [results, Tryz.results10, go_sem, hcz], rfl, (hB3.setCell (p := ⟨w.heap.size + 1 + 1 + 1, 0, none⟩) (by show w.heap.size ≤ w.heap.size + 1 + 1 + 1; omega) (.bool true)).trans ?_⟩
    exact belowK_b (w := w) (Nat.le_refl _) (W3.setCell ⟨w.heap.size + 1 + 1 + 1, 0, none⟩ (.bool true)) D _ _ (by have := HD.out; have := HZ.out; omega) hK2 rfl rfl
  case stop =>
    rintro D c pre W hD hpre ⟨rfl, b2, hB⟩ hK
    have HD := Lib.hid hD
    have HZ := Lib.hid zs
    have hc := b2.cell
    clear hk hD zs
    gi_wp2_with fail
    refine ⟨by simp, .inl ⟨_, _, rfl, run_takeDeferred hK, ?_⟩⟩
    have hDn : D ≠ w.heap.size + 1 + 1 + 1 := by have := HD.out; have := HZ.out; omega
    have hcz : ∀ o, (W.putObj D o).cell? ⟨w.heap.size + 1 + 1 + 1, 0, none⟩ = some (.bool true) := fun o => (Boxed.cell (t := 4) (show (W.putObj D o).heap[w.heap.size + 1 + 1 + 1]? = _ from (World.putObj_heap_other (fun e => hDn e.symm)).trans b2))
    refine ⟨.bool true, by simp [results, Tryz.results10, go_sem, hcz], rfl, hB.trans ?_⟩
    exact belowK_b (w := w) (Nat.le_refl _) W D _ _ (by have := HD.out; have := HZ.out; omega) hK rfl rfl

theorem lawNamesBack (n : Int) (s : ByteArray) (attr : Bool) (m : Int) (w : World) (hm : w.cell? ⟨1, 0, none⟩ = some (.int .i64 m)) (hc : CtlW w) :
    Calls Tryz.prog 10 #[.int .i64 n, .string s, .bool attr] w fun e w' => e = .returned (.bool true) ∧ Below w.heap.size w w' := by
  by_cases hs : s.size ≤ 4096
  · exact callsIn_wide.1 (namesBack_in m 8 (by omega) (names_seqN m) n s attr hs w hm hc)
  · have HK := Lib.hid (fun W h => known02 m W (hc.below h) (carry hm h))
    have HS := Lib.hid (small02 s)
    rw [decide_eq_false hs] at HS
    clear hm hc hs
    go_enter Tryz.func10, Tryz.ntmps10
    go_wp2_with fail
    generalize hV0 : (((w.alloc _).alloc _).alloc _).alloc _ = V0
    have z3 : Boxed V0 (w.heap.size + 1 + 1 + 1) 4 (.bool false) := by rw [← hV0]; exact boxed_new _ _ _ _ (by simp)
    have zb : Below w.heap.size w V0 := by rw [← hV0]; (repeat' (first | (with_reducible exact Below.refl _ _) | (with_reducible assumption) | (with_reducible refine below_alloc ?_ _) | (with_reducible refine Below.drew ?_) | (with_reducible refine _root_.Go.below_drewN ?_ _) | (with_reducible refine Below.setCell ?_ ?_ _) | go_size | (refine below_next ?_ (by assumption))))
    clear hV0
    refine (HS.out _).mono ?_
    rintro e W1 ⟨rfl, rfl⟩
    have HKN := Lib.hid (HK.out W1 zb)
    go_wp2_with fail
    refine HKN.out.mono ?_
    rintro e W2 ⟨rfl, hb2⟩
    have c1 : Boxed W2 (w.heap.size + 1 + 1 + 1) 4 (.bool false) := (hb2.block _ z3.lt).trans z3
    have kc := c1.cell
    have fc := c1.frozen
    have hs1 := (c1.set (.bool true)).cell
    have hB3 := (below_next zb hb2).setCell (p := ⟨w.heap.size + 1 + 1 + 1, 0, none⟩) (by show w.heap.size ≤ w.heap.size + 1 + 1 + 1; omega) (.bool true)
    have HB3 := Lib.hid hB3
    clear hB3 z3 zb hb2 c1
    go_wp2_with fail
    exact bodyPost_ret (v := .bool true) (by simp [results, Tryz.results10, go_sem, hs1]) rfl ⟨rfl, HB3.out⟩
end Go.Proofs.YtofiaodpjpjedaaGreatDoor

namespace Go.Proofs.YtofiaodpjpjedaaGreatDoor
open Go.ChangeShapes Go.WideShapes Go.ChangeAt Go.RowKit
set_option maxRecDepth 100000

def laidC : List (String × DataW Unit) := [("unicode/utf8.acceptRanges", Rows.laid_unicode_utf8_acceptRanges), ("thicket/text.controls", Rows.laid_thicket_text_controls), ("unicode/utf8.first", Rows.laid_unicode_utf8_first)]
theorem doorC_os (os : Os) : (World.laidAll Tryz.prog os laidC).os = os := World.laidAll_os _ _ _
theorem doorC_met (os : Os) (args : Array Value) : laidMetH Tryz.prog laidC ((World.laidAll Tryz.prog os laidC).forCall (fun _ _ => 0) ⟨#[], args, []⟩).memory := by
  rw [MakeChecks.laidMetH_plain _ _ _ (by kernel_rfl)]
  exact laidMet_laidAll _ (by kernel_rfl) (by kernel_rfl)

theorem gCtl : Tryz.prog.globalNamed "thicket/text.controls" = some 0 := by kernel_rfl
theorem tCtl : (Tryz.prog.globals[0]?).map (·.type) = some 99 := by kernel_rfl
theorem cCtl : Tryz.prog.cellsOf 21 = 1 := by kernel_rfl
theorem ctlD : (Rows.laid_thicket_text_controls : DataW Unit) = .agg (ctlT.map fun z => .lit (.int .i32 z)) := rfl

theorem ctl_of_laid {W : World} (h : laidMetH Tryz.prog laidC W) : CtlW W := by
  rw [MakeChecks.laidMetH_plain _ _ _ (by kernel_rfl)] at h
  obtain ⟨ps, ⟨g0, t0, cs0, f0, p0, q0, hg0, ht0, hv0, hd0, ⟨g1, t1, cs1, f1, p1, q1, hg1, ht1, hv1, hd1, _, _⟩, _⟩, _⟩ := h
  obtain rfl := Option.some.inj (gCtl.symm.trans hg1)
  obtain rfl := Option.some.inj (tCtl.symm.trans ht1)
  obtain ⟨xs, m1, rfl, hx1, hlen, hn, hel⟩ := DataW.trod_array Tryz.underlying99 hd1
  intro k hk
  have h1 := hel k hk
  rw [cCtl, Nat.mul_one] at h1
  have hxk : xs[k]? = some (xs[k]'(by omega)) := List.getElem?_eq_getElem (by omega)
  rw [hxk] at h1
  obtain ⟨z, e1, e2, _⟩ := DataW.trod_int Tryz.underlying21 h1
  have hz : z = ctlT.getD k 0 := by
    have hx2 := congrArg Prod.fst hx1
    rw [ctlD] at hx2
    simp only [DataW.agg.injEq] at hx2
    have h3 : (ctlT.map fun z => (DataW.lit (.int .i32 z) : DataW Unit))[k]? = (xs.map (·.1))[k]? := by rw [hx2]
    rw [List.getElem?_map, List.getElem?_map, hxk, e2] at h3
    have hk2 : k < ctlT.length := hk
    rw [List.getElem?_eq_getElem hk2] at h3
    simp at h3
    rw [List.getD_eq_getElem?_getD, List.getElem?_eq_getElem hk2]
    simpa using h3.symm
  rw [World.var?_cell hg1 hv1 k, ← hz]
  have h4 : (cs1.toList.drop k)[0]? = some (.int .i32 z) := by
    have := congrArg (fun l => l[0]?) e1
    simp only [List.getElem?_take] at this
    simpa using this
  rw [List.getElem?_drop, Nat.add_zero, Array.getElem?_toList] at h4
  exact h4

/-- A row whose start is said to hold more, with the shapes and the listed variables at hand. -/
theorem handedC {H : Type} {enc : TypeId × Value → H} {a : Assume} {os : Os} {f : FuncId} {fn : Func} {s : ChangeSpec} {conds : List PathCond} {apart fresh handsOn again : Bool}
    (own : ownKnob Tryz.prog.godebug = none) (started : os.Started) (noInit : Tryz.prog.inits.idxOf? f = none) (hfn : Tryz.prog.funcs[f]? = some fn)
    (witness : ∃ (w : World) (tape : Tape) (i : Input), w.os = os ∧ (w.forCall tape i).Shaped Tryz.prog ∧ i.vars = [] ∧ Input.okWide Tryz.prog (w.forCall tape i) .any w.heap.size f i ∧
      ((s.pre enc Tryz.prog fn conds apart (w.forCall tape i).memory i.args ∧ laidMetH Tryz.prog laidC (w.forCall tape i).memory) ∧ sizedMet enc Tryz.prog fn (OpenSpec.ofChange s) apart (w.forCall tape i).memory i.args) ∧ a.holds Tryz.prog (lone (Frame.enter Tryz.prog f i.args .normal) [] (w.forCall tape i)))
    (walk : ∀ (W : World) (base : Nat) (args : Array Value) (ds gs : List (DataW H)) (before : List MemPlace),
      (∀ (j : Nat) t v, fn.params[j]? = some t → args[j]? = some v → Value.okWide Tryz.prog W .any base t v) →
      DataW.Whole enc Tryz.prog fn.params.toList s.vars apart W args.toList ds gs before → W.ShapedOpen Tryz.prog → CtlW W →
      Calls Tryz.prog f args W fun e W' => ∃ v, e = .returned v ∧ s.post enc Tryz.prog fn apart fresh handsOn again W args v W') :
    ReturnsInHanded a Tryz.checked os f .any (fun w args => (s.pre enc Tryz.prog fn conds apart w args ∧ laidMetH Tryz.prog laidC w) ∧ sizedMet enc Tryz.prog fn (OpenSpec.ofChange s) apart w args) (s.post enc Tryz.prog fn apart fresh handsOn again) := by
  refine returnsInHanded_of_calls (C := Tryz.checked) own started (by exact noInit) witness ?_
  intro w tape i _ hsh _ hok hpre _
  obtain ⟨_, _, _, fn', hfn', _, _, _, _, hval⟩ := hok
  obtain rfl : fn' = fn := Option.some.inj (hfn'.symm.trans hfn)
  obtain ⟨⟨⟨ds, gs, before, hw, _⟩, hX⟩, _⟩ := hpre
  refine (walk (w.forCall tape i) w.heap.size i.args ds gs before hval (DataW.Whole.of_heap (w' := w.forCall tape i) (by rfl) hw) hsh (ctl_of_laid (laidMetH.of_heap (w' := w.forCall tape i) (by rfl) hX))).mono fun e W' ⟨v, he, hp⟩ => ?_
  subst he
  exact ChangeSpec.post_blind hp
end Go.Proofs.YtofiaodpjpjedaaGreatDoor
