/-
  The sequence of the parts of a string between one byte.
-/
import Derived.Test.YtheiehbfbgjgpabDoorDec
import Derived.Test.YtheiehbfbgjgpabDoorLup
import Derived.RangeFuncBox
namespace Go.Proofs.YtheiehbfbgjgpabDoor
open Go.RowKit Go.Shelf
attribute [local go_sem] Oper.semAt_some
set_option maxHeartbeats 1000000
set_option maxRecDepth 100000

def pk (l : List UInt8) : ByteArray := ⟨l.toArray⟩
def partsB (c : UInt8) (s : ByteArray) : List ByteArray := (parts c s.data.toList).map pk

theorem boxed_new (W : World) (B : Nat) (t : TypeId) (v : Value) (h : B = W.heap.size) : Boxed (W.alloc (.cells #[v] t)) B t v := by subst h; exact Boxed.new W t v

theorem parts_index (c : UInt8) : ∀ l : List UInt8, (Lib.indexByte l c = -1 ∧ parts c l = [l]) ∨ ∃ i : Nat, Lib.indexByte l c = i ∧ i < l.length ∧ parts c l = l.take i :: parts c (l.drop (i + 1)) := by
  intro l
  induction l with
  | nil => exact .inl ⟨rfl, rfl⟩
  | cons b t ih =>
    by_cases hb : (b == c) = true
    · refine .inr ⟨0, ?_, by simp, ?_⟩
      · simp [Lib.indexByte, hb]
      · rw [parts, if_pos hb]; rfl
    · rw [parts, if_neg hb]
      rcases ih with ⟨h1, h2⟩ | ⟨i, h1, h2, h3⟩
      · refine .inl ⟨?_, by rw [h2]⟩
        simp [Lib.indexByte, hb, h1]
      · refine .inr ⟨i + 1, ?_, by simp; omega, by rw [h3]; rfl⟩
        rw [Lib.indexByte, if_neg hb, h1]
        simp

theorem partsB_step (c : UInt8) (r : ByteArray) : (Lib.indexByte r.data.toList c = -1 ∧ partsB c r = [r]) ∨ ∃ i : Nat, Lib.indexByte r.data.toList c = i ∧ i < r.size ∧ partsB c r = r.extract 0 i :: partsB c (r.extract (i + 1) r.size) := by
  unfold partsB
  rcases parts_index c r.data.toList with ⟨h1, h2⟩ | ⟨i, h1, h2, h3⟩
  · exact .inl ⟨h1, by rw [h2]; rfl⟩
  · refine .inr ⟨i, h1, by rw [size_list] at h2; exact h2, ?_⟩
    rw [h3, List.map_cons]
    have e1 : (r.extract 0 i).data.toList = r.data.toList.take i := by rw [Lib.extract_data]; simp
    have e2 : (r.extract (i + 1) r.size).data.toList = r.data.toList.drop (i + 1) := by
      rw [Lib.extract_data]
      exact List.take_of_length_le (by rw [List.length_drop, Array.length_toList]; exact Nat.le_refl _)
    rw [e2, ← e1]
    rfl

theorem splitSeq_call (s : ByteArray) (c : UInt8) (w : World) :
    Calls Tryd.prog 52 #[.string s, .string ⟨#[c]⟩] w fun e w' => ∃ b0 b1 b2, e = .returned (.func (.func 96) #[] #[.pointer (some ⟨b0, 0, none⟩), .pointer (some ⟨b1, 0, none⟩), .pointer (some ⟨b2, 0, none⟩)]) ∧
      Boxed w' b0 9 (.string ⟨#[c]⟩) ∧ Boxed w' b1 9 (.string s) ∧ Boxed w' b2 3 (.int .i64 0) ∧ b0 ≠ b1 ∧ b1 ≠ b2 ∧ w.heap.size ≤ b1 ∧ Below w.heap.size w w' := by
  go_enter Tryd.func52, Tryd.ntmps52
  go_wp2
  refine bodyPost_ret (results_tmp rfl _ _ _) rfl ?_
  exact ⟨w.heap.size + 1, w.heap.size, w.heap.size + 1 + 1, rfl, boxed_new _ _ _ _ (by simp) |>.alloc _, ((Boxed.new _ _ _).alloc _).alloc _, boxed_new _ _ _ _ (by simp), by omega, by omega, Nat.le_refl _, by (repeat' (first | (with_reducible exact Below.refl _ _) | (with_reducible assumption) | (with_reducible refine below_alloc ?_ _) | (with_reducible refine Below.drew ?_) | (with_reducible refine below_drewN ?_ _) | (with_reducible refine Below.setCell ?_ ?_ _) | go_size | (refine below_next ?_ (by assumption))))⟩
theorem split_in (n : Nat) (hn : 1 ≤ n) (l b0 b1 b2 : Nat) (c : UInt8) (s : ByteArray) (hs : s.size ≤ 100000) (J : List ByteArray → World → Prop) (W : World) (h01 : b0 ≠ b1) (h12 : b1 ≠ b2)
    (hJ : ∀ xs A r x, J xs A → Boxed A b1 9 (.string r) → J xs (A.setCell ⟨b1, 0, none⟩ (.string x)))
    (hY : ∀ pre x r W1, J pre W1 → pre.length ≤ s.size → x.size ≤ s.size → Boxed W1 b0 9 (.string ⟨#[c]⟩) → Boxed W1 b1 9 (.string r) → Boxed W1 b2 3 (.int .i64 0) → YieldAt Fence.wide (n - 1) Tryd.prog l #[.string x] W1 fun e W' =>
      e = .returned (.bool true) ∧ J (pre ++ [x]) W' ∧ W'.heap[b0]? = W1.heap[b0]? ∧ W'.heap[b1]? = W1.heap[b1]? ∧ W'.heap[b2]? = W1.heap[b2]?)
    (hc0 : Boxed W b0 9 (.string ⟨#[c]⟩)) (hc1 : Boxed W b1 9 (.string s)) (hc2 : Boxed W b2 3 (.int .i64 0)) (h0 : J [] W) :
    CallsIn Fence.wide n Tryd.prog 96 #[.func (.yield l) #[] #[], .pointer (some ⟨b0, 0, none⟩), .pointer (some ⟨b1, 0, none⟩), .pointer (some ⟨b2, 0, none⟩)] W fun e W' => (∃ v, e = .returned v) ∧ J (partsB c s) W' := by
  refine callsIn_of_wp Tryd.func96 rfl trivial ?_ rfl
  simp only [Tryd.ntmps96, List.size_toArray, List.length_cons, List.length_nil, Nat.reduceAdd, Nat.reduceSub, Array.replicate_succ, Array.replicate_zero, List.push_toArray, List.append_toArray, List.nil_append, List.cons_append]
  have k0 := hc0.cell
  have k1 := hc1.cell
  have k2 := hc2.cell
  gi_wp2_with fail
  have HJ := Lib.hid hJ
  have HY := Lib.hid hY
  clear hJ hY k0 k1 k2
  gi_loopw [7] (fun _ wr => ∃ (pre : List ByteArray) (r : ByteArray), pre ++ partsB c r = partsB c s ∧ r.size + pre.length ≤ s.size ∧ J pre wr ∧ Boxed wr b0 9 (.string ⟨#[c]⟩) ∧ Boxed wr b1 9 (.string r) ∧ Boxed wr b2 3 (.int .i64 0))
    (fun _ wr => match wr.cell? ⟨b1, 0, none⟩ with | some (.string r) => r.size | _ => 0)
  case atStart => exact ⟨[], s, rfl, by simp, h0, hc0, hc1, hc2⟩
  case round =>
    obtain ⟨pre, r, hp, hsz, hJr, g0, g1, g2⟩ := hrel
    have k0 := g0.cell
    have k1 := g1.cell
    have k2 := g2.cell
    have f1 := g1.frozen
    have HP := Lib.hid hp
    clear hp
    have HIX := Lib.hid (Tryd.strings_Index_one r c wr)
    rcases partsB_step c r with ⟨h1, h2⟩ | ⟨i, h1, h2, h3⟩
    · rw [h1] at HIX
      have HPC := Lib.hid h2
      clear h1 h2
      obtain ⟨fn, tmps, assign, body, hy, hR⟩ := HY.out pre r r wr hJr (by omega) (by omega) g0 g1 g2
      gi_wp2_with (refine ⟨trivial, ?_⟩; gi_at_call 98; refine (callsIn_wide.2 HIX.out).mono ?_; rintro e W1 ⟨rfl, rfl⟩)
      refine hR.mono ?_
      rintro e W3 ⟨rfl, hJ3, _, _, _⟩
      gi_wp2
      go_end0
      have e := HP.out
      rw [HPC.out] at e
      exact ⟨⟨_, rfl⟩, e ▸ hJ3⟩
    · rw [h1] at HIX
      have HPC := Lib.hid h3
      clear h1 h3
      have hx0 : (i : Int) ≤ (r.size : Int) := by omega
      have hx1 : (i : Int) + 1 ≤ (r.size : Int) := by omega
      obtain ⟨fn, tmps, assign, body, hy, hR⟩ := HY.out pre (r.extract 0 i) r wr hJr (by omega) (by rw [ByteArray.size_extract]; omega) g0 g1 g2
      gi_wp2_with (refine ⟨trivial, ?_⟩; gi_at_call 98; refine (callsIn_wide.2 HIX.out).mono ?_; rintro e W1 ⟨rfl, rfl⟩)
      refine hR.mono ?_
      rintro e W3 ⟨rfl, hJ3, j0, j1, j2⟩
      have g0' : Boxed W3 b0 9 (.string ⟨#[c]⟩) := j0.trans g0
      have g1' : Boxed W3 b1 9 (.string r) := j1.trans g1
      have g2' : Boxed W3 b2 3 (.int .i64 0) := j2.trans g2
      have k0' := g0'.cell
      have k1' := g1'.cell
      have k2' := g2'.cell
      have f1' := g1'.frozen
      clear j0 j1 j2
      gi_wp2
      go_roundw
      case rel =>
        refine ⟨pre ++ [r.extract 0 i], r.extract (i + 1) r.size, ?_, ?_, HJ.out _ _ _ _ hJ3 g1', g0'.other h01 _, g1'.set _, g2'.other (Ne.symm h12) _⟩
        · rw [← HP.out, HPC.out]; simp
        · rw [ByteArray.size_extract]; simp; omega
      case measure =>
        rw [k1, (g1'.set _).cell]
        simp [ByteArray.size_extract]; omega
end Go.Proofs.YtheiehbfbgjgpabDoor
