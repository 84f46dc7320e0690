/-
  The document's own classes of bytes.
-/
import Derived.Test.YtheiehbfbgjgpabDoorKnw
namespace Go.Proofs.YtheiehbfbgjgpabDoor
open Go.RowKit
set_option maxHeartbeats 1000000
set_option maxRecDepth 100000

def hexA : ByteArray := ⟨#[48, 49, 50, 51, 52, 53, 54, 55, 56, 57, 97, 98, 99, 100, 101, 102, 48, 49, 50, 51, 52, 53, 54, 55, 56, 57, 65, 66, 67, 68, 69, 70]⟩
def hexV (b : Int) : Int := if digB b then b - 48 else if 97 ≤ b ∧ b ≤ 102 then b - 87 else if 65 ≤ b ∧ b ≤ 70 then b - 55 else -1
theorem hexA_size : hexA.size = 32 := rfl
theorem hexV_at : ∀ i (h : i < hexA.size), hexV ((hexA[i]'h).toNat : Int) = ((i % 16 : Nat) : Int) := by
  have : ∀ i : Fin 32, hexV ((hexA[i.val]'(i.isLt)).toNat : Int) = ((i.val % 16 : Nat) : Int) := by decide
  exact fun i h => this ⟨i, h⟩
theorem hexV_none (b : Int) (h : ∀ j (hj : j < hexA.size), ((hexA[j]'hj).toNat : Int) ≠ b) : hexV b = -1 := by
  have k : ∀ j : Fin 32, ((hexA[j.val]'(j.isLt)).toNat : Int) ≠ b := fun j => h j.val j.isLt
  have k0 : (48 : Int) ≠ b := k 0
  have k1 : (49 : Int) ≠ b := k 1
  have k2 : (50 : Int) ≠ b := k 2
  have k3 : (51 : Int) ≠ b := k 3
  have k4 : (52 : Int) ≠ b := k 4
  have k5 : (53 : Int) ≠ b := k 5
  have k6 : (54 : Int) ≠ b := k 6
  have k7 : (55 : Int) ≠ b := k 7
  have k8 : (56 : Int) ≠ b := k 8
  have k9 : (57 : Int) ≠ b := k 9
  have k10 : (97 : Int) ≠ b := k 10
  have k11 : (98 : Int) ≠ b := k 11
  have k12 : (99 : Int) ≠ b := k 12
  have k13 : (100 : Int) ≠ b := k 13
  have k14 : (101 : Int) ≠ b := k 14
  have k15 : (102 : Int) ≠ b := k 15
  have k26 : (65 : Int) ≠ b := k 26
  have k27 : (66 : Int) ≠ b := k 27
  have k28 : (67 : Int) ≠ b := k 28
  have k29 : (68 : Int) ≠ b := k 29
  have k30 : (69 : Int) ≠ b := k 30
  have k31 : (70 : Int) ≠ b := k 31
  clear h k
  unfold hexV
  rw [if_neg (by simp [digB]; omega), if_neg (by omega), if_neg (by omega)]

theorem rHex (b : Int) (w : World) : Calls Tryd.prog 76 #[.int .u8 b] w fun e w' => e = .returned (.int .i64 (hexV b)) ∧ w' = w := by
  go_enter Tryd.func76, Tryd.ntmps76
  generalize hN : (ByteArray.mk #[48, 49, 50, 51, 52, 53, 54, 55, 56, 57, 97, 98, 99, 100, 101, 102, 48, 49, 50, 51, 52, 53, 54, 55, 56, 57, 65, 66, 67, 68, 69, 70]) = N
  have HN : hexA = N := by rw [← hN]; rfl
  clear hN
  have HA := Lib.hid hexV_at
  have HO := Lib.hid (hexV_none b)
  have hsz := hexA_size
  rw [HN] at HA HO hsz
  clear HN
  have HSZ := Lib.hid hsz
  clear hsz
  go_wp2_with fail
  go_loop [4] (fun v => ∃ i : Nat, v = .int .i64 i ∧ i ≤ 32 ∧ ∀ j (hj : j < N.size), j < i → ((N[j]'hj).toNat : Int) ≠ b) (fun v => 32 - (intOf v).toNat)
  case atStart => exact ⟨0, rfl, by omega, fun j _ h => by omega⟩
  case round =>
    obtain ⟨i, rfl, hi, hno⟩ := hrel
    have HNO := Lib.hid hno
    clear hno
    by_cases hlt : i < N.size
    · have hlt2 : i < 32 := by have := HSZ.out; omega
      have hI : (i : Int) < (N.size : Int) := by omega
      by_cases hq : (((N[i]'hlt).toNat : Int) == b) = true
      · have hv := HA.out i hlt
        rw [show ((N[i]'hlt).toNat : Int) = b from eq_of_beq hq] at hv
        have HV := Lib.hid hv
        clear hv
        go_wp2
        go_ret
        exact ⟨ret_int (by rw [HV.out]; omega), rfl⟩
      · simp only [Bool.not_eq_true] at hq
        go_wp2
        go_round
        case rel =>
          refine ⟨i + 1, by go_num, by omega, ?_⟩
          intro j hj hji
          by_cases e : j = i
          · subst e; exact ne_of_beq_false hq
          · exact HNO.out j hj (by omega)
        case measure => simp [intOf]; omega
    · go_wp2
      go_ret
      exact ⟨ret_int (by rw [HO.out (fun j hj => HNO.out j hj (by omega))]), rfl⟩

theorem hexV_hex (b : Int) : decide (0 ≤ hexV b) = hexB b := by
  unfold hexV hexB digB
  rw [Bool.eq_iff_iff]
  split
  · rename_i h; simp at h ⊢; omega
  · split
    · rename_i h1 h2; simp at h1 h2 ⊢; omega
    · split
      · rename_i h1 h2 h3; simp at h1 h2 h3 ⊢; omega
      · rename_i h1 h2 h3; simp at h1 h2 h3 ⊢; omega

end Go.Proofs.YtheiehbfbgjgpabDoor
