/-
  The cursor's methods.
  The classes of characters of layer 1: what each exported test returns, for every rune.
  Letters and digits together; the space test, through strings.ContainsRune at whatever rune over an ASCII string.
  The table of the names: the constant, as the program holds it.
-/
import Derived.Test.YtnfccckodgknjaaGreatDoorY01
import Derived.Test.YtnfccckodgknjaaGreatDoorProg
import Derived.Test.YtnfccckodgknjaaGreatDoorY04
namespace Go.Proofs.YtnfccckodgknjaaGreatDoor
open Go.RowKit
set_option maxHeartbeats 1000000
set_option maxRecDepth 100000

/-- An offset, clamped. -/
def clip (s : ByteArray) (a : Int) : Nat := (max 0 (min a s.size)).toNat
theorem clip_le (s : ByteArray) (a : Int) : clip s a ≤ s.size := by unfold clip; omega

theorem cursorAt (s : ByteArray) (a : Int) (hs : s.size ≤ maxLen) (w : World) :
    Calls Tryz.prog 60 #[.string s, .int .i64 a] w fun e w' => e = .returned (.agg #[.string s, .int .i64 (clip s a)]) ∧ Below w.heap.size w w' := by
  unfold maxLen at hs
  have e : ((clip s a : Nat) : Int) = max 0 (min a s.size) := by unfold clip; omega
  have HE := Lib.hid e
  generalize clip s a = k at HE
  clear e
  go_enter Tryz.func60, Tryz.ntmps60
  go_wp2
  all_goals have e := HE.out
  · have e2 : (k : Int) = s.size := by omega
    refine bodyPost_ret (v := .agg #[.string s, .int .i64 s.size]) (by simp [results, Tryz.results60, go_sem]) rfl ⟨by rw [e2], by (repeat' (first | (with_reducible exact Below.refl _ _) | (with_reducible assumption) | (with_reducible refine below_alloc ?_ _) | (with_reducible refine Below.drew ?_) | (with_reducible refine _root_.Go.below_drewN ?_ _) | (with_reducible refine Below.setCell ?_ ?_ _) | go_size | (refine below_next ?_ (by assumption))))⟩
  · have e2 : (k : Int) = 0 := by omega
    refine bodyPost_ret (v := .agg #[.string s, .int .i64 0]) (by simp [results, Tryz.results60, go_sem]) rfl ⟨by rw [e2], by (repeat' (first | (with_reducible exact Below.refl _ _) | (with_reducible assumption) | (with_reducible refine below_alloc ?_ _) | (with_reducible refine Below.drew ?_) | (with_reducible refine _root_.Go.below_drewN ?_ _) | (with_reducible refine Below.setCell ?_ ?_ _) | go_size | (refine below_next ?_ (by assumption))))⟩
  · have e2 : (k : Int) = a := by omega
    refine bodyPost_ret (v := .agg #[.string s, .int .i64 a]) (by simp [results, Tryz.results60, go_sem]) rfl ⟨by rw [e2], by (repeat' (first | (with_reducible exact Below.refl _ _) | (with_reducible assumption) | (with_reducible refine below_alloc ?_ _) | (with_reducible refine Below.drew ?_) | (with_reducible refine _root_.Go.below_drewN ?_ _) | (with_reducible refine Below.setCell ?_ ?_ _) | go_size | (refine below_next ?_ (by assumption))))⟩
  · have e2 : (k : Int) = 0 := by omega
    refine bodyPost_ret (v := .agg #[.string s, .int .i64 0]) (by simp [results, Tryz.results60, go_sem]) rfl ⟨by rw [e2], by (repeat' (first | (with_reducible exact Below.refl _ _) | (with_reducible assumption) | (with_reducible refine below_alloc ?_ _) | (with_reducible refine Below.drew ?_) | (with_reducible refine _root_.Go.below_drewN ?_ _) | (with_reducible refine Below.setCell ?_ ?_ _) | go_size | (refine below_next ?_ (by assumption))))⟩

theorem curRest (b : Nat) (c : Array Value) (T : TypeId) (s : ByteArray) (k : Nat) (hk : k ≤ s.size) (w : World) (h : At w b c T s k) :
    Calls Tryz.prog 127 #[.pointer (some ⟨b, 0, none⟩)] w fun e w' => e = .returned (.string (s.extract k s.size)) ∧ Below w.heap.size w w' := by
  have h0 := h.cell0
  have h1 := h.cell1
  have i1 : (k : Int) ≤ (s.size : Int) := by omega
  go_enter Tryz.func127, Tryz.ntmps127
  go_wp2_with fail
  go_quiet (fail)
  go_wp2_with fail
  go_ret
  exact ⟨rfl, by (repeat' (first | (with_reducible exact Below.refl _ _) | (with_reducible assumption) | (with_reducible refine below_alloc ?_ _) | (with_reducible refine Below.drew ?_) | (with_reducible refine _root_.Go.below_drewN ?_ _) | (with_reducible refine Below.setCell ?_ ?_ _) | go_size | (refine below_next ?_ (by assumption))))⟩

theorem curEnded (b : Nat) (c : Array Value) (T : TypeId) (s : ByteArray) (k : Nat) (_hk : k ≤ s.size) (w : World) (h : At w b c T s k) :
    Calls Tryz.prog 62 #[.pointer (some ⟨b, 0, none⟩)] w fun e w' => e = .returned (.bool (decide (k = s.size))) ∧ Below w.heap.size w w' := by
  have h0 := h.cell0
  have h1 := h.cell1
  go_enter Tryz.func62, Tryz.ntmps62
  go_wp2_with fail
  go_quiet (fail)
  go_wp2_with fail
  go_ret
  exact ⟨ret_bool (by rw [Bool.eq_iff_iff]; simp; omega), by (repeat' (first | (with_reducible exact Below.refl _ _) | (with_reducible assumption) | (with_reducible refine below_alloc ?_ _) | (with_reducible refine Below.drew ?_) | (with_reducible refine _root_.Go.below_drewN ?_ _) | (with_reducible refine Below.setCell ?_ ?_ _) | go_size | (refine below_next ?_ (by assumption))))⟩

theorem curTake (b : Nat) (c : Array Value) (T : TypeId) (s : ByteArray) (k n : Nat) (hk : k + n ≤ s.size) (hs : s.size ≤ maxLen) (w : World) (h : At w b c T s k) :
    Calls Tryz.prog 116 #[.pointer (some ⟨b, 0, none⟩), .int .i64 n] w fun e w' => e = .returned (.string (s.extract k (k + n))) ∧ At w' b (mv c (k + n)) T s (k + n) ∧ But b w w' := by
  unfold maxLen at hs
  have h0 := h.cell0
  have h1 := h.cell1
  have f1 := h.frozen 1
  have i1 : (k : Int) + (n : Int) ≤ (s.size : Int) := by omega
  go_enter Tryz.func116, Tryz.ntmps116
  go_wp2_with fail
  go_quiet (fail)
  go_wp2_with fail
  go_ret
  have hq : At (w.drewN nq) b c T s k := h.same rfl
  exact ⟨rfl, hq.set (k + n), (But.of_below (_root_.Go.below_drewN (Below.refl _ _) nq)).trans (But.set _ _ _ _)⟩
end Go.Proofs.YtnfccckodgknjaaGreatDoor

namespace Go.Proofs.YtnfccckodgknjaaGreatDoor
open Go.RowKit
set_option maxHeartbeats 1000000

theorem isUpper (r : Int) (w : World) : Calls Tryz.prog 139 #[.int .i32 r] w fun e w' => e = .returned (.bool (upB r)) ∧ Below w.heap.size w w' := by
  go_enter Tryz.func139, Tryz.ntmps139
  go_wp2
  all_goals go_ret
  all_goals refine ⟨?_, by go_grown⟩
  all_goals (first | (simp [upB, *]; done) | (simp [upB, *]; omega))

theorem isDigit (r : Int) (w : World) : Calls Tryz.prog 170 #[.int .i32 r] w fun e w' => e = .returned (.bool (digB r)) ∧ Below w.heap.size w w' := by
  go_enter Tryz.func170, Tryz.ntmps170
  go_wp2
  all_goals go_ret
  all_goals refine ⟨?_, by go_grown⟩
  all_goals (first | (simp [digB, *]; done) | (simp [digB, *]; omega))

theorem isLetter (r : Int) (w : World) : Calls Tryz.prog 76 #[.int .i32 r] w fun e w' => e = .returned (.bool (letB r)) ∧ Below w.heap.size w w' := by
  go_enter Tryz.func76, Tryz.ntmps76
  go_wp2
  go_rounds 3
  all_goals go_ret
  all_goals refine ⟨?_, by go_grown⟩
  all_goals (first | (simp [letB, *]; done) | (simp [letB, *]; omega))

theorem isHex (r : Int) (w : World) : Calls Tryz.prog 217 #[.int .i32 r] w fun e w' => e = .returned (.bool (hexB r)) ∧ Below w.heap.size w w' := by
  go_enter Tryz.func217, Tryz.ntmps217
  go_wp2
  go_rounds 4
  all_goals go_ret
  all_goals refine ⟨?_, by go_grown⟩
  all_goals (first | (simp [hexB, *]; done) | (simp [hexB, *]; omega))

end Go.Proofs.YtnfccckodgknjaaGreatDoor

namespace Go.Proofs.YtnfccckodgknjaaGreatDoor
open Go.RowKit
set_option maxHeartbeats 1000000

theorem isAlnum (r : Int) (w : World) : Calls Tryz.prog 102 #[.int .i32 r] w fun e w' => e = .returned (.bool (alnB r)) ∧ Below w.heap.size w w' := by
  go_enter Tryz.func102, Tryz.ntmps102
  go_wp2
  refine wp_loop_rounds 3 ?_
  iterate 3
    all_goals try (rw [rounds_succ]; go_wp2_with (first | (go_at_call 76; refine (isLetter _ _).mono ?_; rintro e w' ⟨rfl, hb⟩; obtain ⟨hc, hf⟩ := bcell hb) | (go_at_call 170; refine (isDigit _ _).mono ?_; rintro e w' ⟨rfl, hb2⟩; obtain ⟨hc2, hf2⟩ := bcell hb2) | go_in))
  all_goals go_ret
  · have h1 : letB r = true := by assumption
    exact ⟨ret_bool (by simp only [alnB, h1, Bool.true_or]), by (repeat' (first | (with_reducible exact Below.refl _ _) | (with_reducible assumption) | (with_reducible refine below_alloc ?_ _) | (with_reducible refine Below.drew ?_) | (with_reducible refine _root_.Go.below_drewN ?_ _) | (with_reducible refine Below.setCell ?_ ?_ _) | go_size | (refine below_next ?_ (by assumption))))⟩
  · have h1 : letB r = false := by assumption
    have h2 : digB r = true := by assumption
    exact ⟨ret_bool (by simp only [alnB, h1, h2, Bool.or_true]), by (repeat' (first | (with_reducible exact Below.refl _ _) | (with_reducible assumption) | (with_reducible refine below_alloc ?_ _) | (with_reducible refine Below.drew ?_) | (with_reducible refine _root_.Go.below_drewN ?_ _) | (with_reducible refine Below.setCell ?_ ?_ _) | go_size | (refine below_next ?_ (by assumption))))⟩
  · have h1 : letB r = false := by assumption
    have h2 : digB r = false := by assumption
    exact ⟨ret_bool (by simp only [alnB, h1, h2, Bool.or_false]), by (repeat' (first | (with_reducible exact Below.refl _ _) | (with_reducible assumption) | (with_reducible refine below_alloc ?_ _) | (with_reducible refine Below.drew ?_) | (with_reducible refine _root_.Go.below_drewN ?_ _) | (with_reducible refine Below.setCell ?_ ?_ _) | go_size | (refine below_next ?_ (by assumption))))⟩
end Go.Proofs.YtnfccckodgknjaaGreatDoor

namespace Go.Proofs.YtnfccckodgknjaaGreatDoor
open Go.RowKit

noncomputable def opStr (o : Op) : ByteArray := match o with | Op.slice _ (Operand.const (Value.string s)) _ _ _ => s | _ => ByteArray.empty
noncomputable def secondOps (c : Code) : Array Oper := match c with | Code.seq _ (Code.seq (Code.region _ ops _) _) => ops | _ => #[]
/-- The constant api.Names. -/
noncomputable def NM : ByteArray := opStr ((secondOps (Tryz.f242.body.getD Code.ret)).getD 1 ⟨none, .move (.tmp 0), 0, "", #[], none⟩).op
theorem nm_len : (NM.data.toList.length == 29726) = true := by decide +kernel
theorem nm_size : NM.size = 29726 := by
  have := nm_len
  simpa using this
end Go.Proofs.YtnfccckodgknjaaGreatDoor
