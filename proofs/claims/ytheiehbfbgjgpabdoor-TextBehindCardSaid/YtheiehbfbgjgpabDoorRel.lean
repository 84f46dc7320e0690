/-
  The document's own reading of names.
-/
import Derived.Test.YtheiehbfbgjgpabDoorRdg
namespace Go.Proofs.YtheiehbfbgjgpabDoor
open Go.RowKit
set_option maxHeartbeats 1000000
set_option maxRecDepth 100000

theorem bareP_eq (b : Int) : bareP b = (!(spB b) && !(b == 0) && !(b == 47) && !(b == 62)) := by
  have e : memB ⟨#[0, 47, 62]⟩ b = ((b == 0) || (b == 47) || (b == 62)) := by
    rw [Bool.eq_iff_iff]
    simp [memB]
    omega
  unfold bareP notIn
  rw [e]
  cases spB b <;> cases (b == 0) <;> cases (b == 47) <;> cases (b == 62) <;> rfl
theorem nameB_eq (b : Int) (h : b ≤ 255) : nameB b = !(!(alnB b) && !(b == 45) && !(b == 46) && !(b == 58) && !(b == 95) && decide (b < 128)) := by
  have e : memB ⟨#[45, 46, 58, 95]⟩ b = ((b == 45) || (b == 46) || (b == 58) || (b == 95)) := by
    rw [Bool.eq_iff_iff]
    simp [memB]
    omega
  have e2 : betB 128 255 b = !(decide (b < 128)) := by
    rw [Bool.eq_iff_iff]
    simp [betB]
    omega
  unfold nameB
  rw [e, e2]
  cases alnB b <;> cases (b == 45) <;> cases (b == 46) <;> cases (b == 58) <;> cases (b == 95) <;> cases decide (b < 128) <;> rfl
theorem startB_eq (b : Int) (h : b ≤ 255) : startB b = !(!(b == 58) && !(b == 95) && decide (b < 128)) := by
  have e : memB ⟨#[58, 95]⟩ b = ((b == 58) || (b == 95)) := by
    rw [Bool.eq_iff_iff]
    simp [memB]
    omega
  have e2 : betB 128 255 b = !(decide (b < 128)) := by
    rw [Bool.eq_iff_iff]
    simp [betB]
    omega
  unfold startB
  rw [e, e2]
  cases (b == 58) <;> cases (b == 95) <;> cases decide (b < 128) <;> rfl

theorem all_no (p : Int → Bool) (s : ByteArray) (k : Nat) (h : k < s.size) (hp : p ((s[k]'h).toNat : Int) = false) : allB p s = false := by
  unfold allB
  rw [List.all_eq_false]
  exact ⟨_, mem_byte s k h, by simp [hp]⟩
theorem all_take_yes (p : Int → Bool) (s : ByteArray) (k : Nat) (h : k < s.size) (hp : p ((s[k]'h).toNat : Int) = true) (ha : ((s.data.toList.take k).all fun b => p b.toNat) = true) : ((s.data.toList.take (k + 1)).all fun b => p b.toNat) = true := by
  rw [take_snoc s k h, List.all_append, ha]
  simp [hp]
theorem all_take_end (p : Int → Bool) (s : ByteArray) (k : Nat) (h : ¬ k < s.size) (ha : ((s.data.toList.take k).all fun b => p b.toNat) = true) : allB p s = true := by
  rw [List.take_of_length_le (by rw [size_list]; omega)] at ha
  exact ha

theorem rHas (s : ByteArray) (c : Int) (hs : s.size ≤ maxLen) (w : World) : Calls Tryd.prog 30 #[.string s, .int .u8 c] w fun e w' => e = .returned (.bool !(allB (fun b => !(b == c)) s)) ∧ w' = w := by
  unfold maxLen at hs
  go_enter Tryd.func30, Tryd.ntmps30
  go_wp2_with fail
  go_loop [5] (fun i => ∃ k : Nat, k ≤ s.size ∧ i = .int .i64 k ∧ ((s.data.toList.take k).all fun b => !((b.toNat : Int) == c)) = true) (fun i => s.size - (intOf i).toNat)
  case atStart => exact ⟨0, Nat.zero_le _, rfl, by simp⟩
  case round =>
    obtain ⟨k, hk, rfl, hall⟩ := hrel
    have HA := Lib.hid hall
    clear hall
    by_cases hlt : k < s.size
    · have hI : (k : Int) < (s.size : Int) := by omega
      cases hp : (((s[k]'hlt).toNat : Int) == c) with
      | false =>
        have HN := Lib.hid (all_take_yes (fun b => !(b == c)) s k hlt (by simp only [hp]; rfl) HA.out)
        go_wp2_with fail
        go_round
        case rel => exact ⟨k + 1, by omega, by go_num, HN.out⟩
        case measure => simp [intOf]; omega
      | true =>
        have HN := Lib.hid (all_no (fun b => !(b == c)) s k hlt (by simp only [hp]; rfl))
        go_wp2_with fail
        go_ret
        exact ⟨ret_bool (by rw [HN.out]; rfl), rfl⟩
    · go_wp2_with fail
      go_ret
      exact ⟨ret_bool (by rw [all_take_end (fun b => !(b == c)) s k hlt HA.out]; rfl), rfl⟩
end Go.Proofs.YtheiehbfbgjgpabDoor
