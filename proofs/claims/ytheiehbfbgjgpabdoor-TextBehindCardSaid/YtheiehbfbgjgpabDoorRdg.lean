/-
  The digits in front of a string: the document's own reading of them.
-/
import Derived.Test.YtheiehbfbgjgpabDoorFrm
namespace Go.Proofs.YtheiehbfbgjgpabDoor
open Go.RowKit
set_option maxHeartbeats 1000000
set_option maxRecDepth 100000

def refP (B x : Int) : Bool := decide (0 ≤ hexV x) && decide (hexV x < B)
theorem refP16 (x : Int) : refP 16 x = hexB x := by
  have h := hexV_hex x
  unfold refP
  rw [h]
  cases hh : hexB x
  · rfl
  · simp only [Bool.true_and, decide_eq_true_eq]
    unfold hexV digB
    unfold hexB at hh
    simp at hh
    split
    · rename_i h1; simp at h1; omega
    · split
      · omega
      · split <;> omega
theorem refP10 (x : Int) : refP 10 x = digB x := by
  unfold refP
  rw [Bool.eq_iff_iff]
  unfold hexV digB
  split
  · rename_i h1; simp at h1; simp; omega
  · rename_i h1
    simp at h1
    split
    · simp; omega
    · split
      · simp; omega
      · simp; omega
theorem hexV_dv (x : Int) (h : hexB x = true) : dvZ x = hexV x := by
  unfold hexB at h
  simp at h
  unfold dvZ hexV digB lowZ upB
  split
  · rfl
  · rename_i h1
    simp at h1
    split
    · rename_i h2
      simp at h2
      rw [if_neg (by omega), if_pos (by omega)]
      omega
    · rename_i h2
      simp at h2
      rw [if_pos (by omega)]
      omega
theorem digB_hexB (x : Int) (h : digB x = true) : hexB x = true := by
  unfold digB at h
  unfold hexB
  simp at h ⊢
  omega

theorem digRun_ge (p : Int → Bool) (b : Int) : ∀ (l : List UInt8) (c : Int) (k : Nat), k ≤ (digRun p b l c k).2 ∧ (digRun p b l c k).2 ≤ k + l.length
  | [], c, k => by simp [digRun]
  | x :: t, c, k => by
    unfold digRun
    split
    · have := digRun_ge p b t (min (c * b + dvZ x.toNat) 1114112) (k + 1)
      rw [List.length_cons]
      omega
    · rw [List.length_cons]
      dsimp only
      omega
theorem digRun_take (p : Int → Bool) (b : Int) : ∀ (l : List UInt8) (c : Int) (k : Nat), digRun p b (l.take ((digRun p b l c k).2 - k)) c k = digRun p b l c k
  | [], c, k => by simp [digRun]
  | x :: t, c, k => by
    cases hp : p x.toNat with
    | true =>
      have e : digRun p b (x :: t) c k = digRun p b t (min (c * b + dvZ x.toNat) 1114112) (k + 1) := by
        conv => lhs; unfold digRun
        rw [if_pos hp]
      have ih := digRun_take p b t (min (c * b + dvZ x.toNat) 1114112) (k + 1)
      have hge := (digRun_ge p b t (min (c * b + dvZ x.toNat) 1114112) (k + 1)).1
      rw [e]
      generalize digRun p b t (min (c * b + dvZ x.toNat) 1114112) (k + 1) = r at ih hge ⊢
      obtain ⟨j, hj⟩ : ∃ j, r.2 - k = j + 1 := ⟨r.2 - k - 1, by omega⟩
      rw [hj, List.take_succ_cons]
      conv => lhs; unfold digRun
      rw [if_pos hp, show j = r.2 - (k + 1) by omega]
      exact ih
    | false =>
      have e : digRun p b (x :: t) c k = (c, k) := by
        conv => lhs; unfold digRun
        rw [if_neg (by simp [hp])]
      rw [e]
      simp [digRun]
theorem digRun_shift (p : Int → Bool) (b : Int) (j : Nat) : ∀ (l : List UInt8) (c : Int) (k : Nat), digRun p b l c (k + j) = ((digRun p b l c k).1, (digRun p b l c k).2 + j)
  | [], c, k => by simp [digRun]
  | x :: t, c, k => by
    have ih := digRun_shift p b j t (min (c * b + dvZ x.toNat) 1114112) (k + 1)
    unfold digRun
    split
    · rw [show k + j + 1 = k + 1 + j by omega, ih]
    · rfl
theorem digRun_00 (p : Int → Bool) (b : Int) (hp : p 48 = true) (l : List UInt8) : digRun p b (48 :: 48 :: l) 0 0 = ((digRun p b l 0 0).1, (digRun p b l 0 0).2 + 2) := by
  have hz : dvZ 48 = 0 := by decide
  have h0 : ∀ (t : List UInt8) (k : Nat), digRun p b (48 :: t) 0 k = digRun p b t 0 (k + 1) := by
    intro t k
    conv => lhs; unfold digRun
    rw [show ((48 : UInt8).toNat : Int) = 48 from rfl, if_pos hp, hz]
    simp
    rfl
  rw [h0, h0]
  exact digRun_shift p b 2 l 0 0

theorem small (s : ByteArray) (w : World) : Calls Tryd.prog 27 #[.string s] w fun e w' => e = .returned (.bool (decide (s.size ≤ 65536))) ∧ w' = w := by
  go_enter Tryd.func27, Tryd.ntmps27
  go_wp2
  go_ret
  exact ⟨ret_bool (by rw [Bool.eq_iff_iff]; simp; omega), rfl⟩

end Go.Proofs.YtheiehbfbgjgpabDoor
