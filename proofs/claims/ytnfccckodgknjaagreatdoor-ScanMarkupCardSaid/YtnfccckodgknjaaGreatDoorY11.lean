/-
  Digits.
-/
import Derived.Test.YtnfccckodgknjaaGreatDoorY07
import Derived.Test.YtnfccckodgknjaaGreatDoorY01
import Derived.Shelf.Abstract
namespace Go.Proofs.YtnfccckodgknjaaGreatDoor
open Go.RowKit Go.Shelf
set_option maxHeartbeats 1000000

def dvZ (b : Int) : Int := if digB b then b - 48 else (lowZ b - 97) % 256 + 10
theorem dvZ_bd {b : Int} (h0 : 0 ≤ b) (h1 : b ≤ 255) : 0 ≤ dvZ b ∧ dvZ b ≤ 300 := by
  unfold dvZ
  split
  · rename_i h; simp [digB] at h; omega
  · omega

theorem digitValue (b : Int) (h0 : 0 ≤ b) (h1 : b ≤ 255) (w : World) :
    Calls Tryz.prog 218 #[.int .u8 b] w fun e w' => e = .returned (.int .i64 (dvZ b)) ∧ Below w.heap.size w w' := by
  cases hd : digB b with
  | true =>
    have hz : dvZ b = b - 48 := by unfold dvZ; rw [hd, if_pos rfl]
    have HZ := Lib.hid hz
    have hr : 48 ≤ b ∧ b ≤ 57 := by simpa [digB] using hd
    obtain ⟨g1, g2⟩ := hr
    clear hz
    go_enter Tryz.func218, Tryz.ntmps218
    go_wp2_with (go_at_call 170; refine (isDigit _ _).mono ?_; rintro e w' ⟨rfl, hb⟩)
    go_ret
    exact ⟨ret_int (by rw [HZ.out]), by (repeat' (first | (with_reducible exact Below.refl _ _) | (with_reducible assumption) | (with_reducible refine below_alloc ?_ _) | (with_reducible refine Below.drew ?_) | (with_reducible refine _root_.Go.below_drewN ?_ _) | (with_reducible refine Below.setCell ?_ ?_ _) | go_size | (refine below_next ?_ (by assumption))))⟩
  | false =>
    have hz : dvZ b = (lowZ b - 97) % 256 + 10 := by unfold dvZ; rw [hd, if_neg (by simp)]
    have HZ := Lib.hid hz
    clear hz
    have hl0 := lowZ_lo h0
    have hl1 := lowZ_hi h1
    have HL := Lib.hid (fun w => lowerByte b h0 h1 w)
    generalize lowZ b = lz at *
    go_enter Tryz.func218, Tryz.ntmps218
    go_wp2_with (first | (go_at_call 170; refine (isDigit _ _).mono ?_; rintro e w' ⟨rfl, hb⟩) | (go_at_call 179; refine (HL.out _).mono ?_; rintro e w2 ⟨rfl, hb2⟩))
    go_ret
    exact ⟨ret_int (by rw [HZ.out]), by (repeat' (first | (with_reducible exact Below.refl _ _) | (with_reducible assumption) | (with_reducible refine below_alloc ?_ _) | (with_reducible refine Below.drew ?_) | (with_reducible refine _root_.Go.below_drewN ?_ _) | (with_reducible refine Below.setCell ?_ ?_ _) | go_size | (refine below_next ?_ (by assumption))))⟩

def digRun (p : Int → Bool) (b : Int) : List UInt8 → Int → Nat → Int × Nat
  | [], c, n => (c, n)
  | x :: t, c, n => if p x.toNat then digRun p b t (min (c * b + dvZ x.toNat) 1114112) (n + 1) else (c, n)

theorem digits16 (s : ByteArray) (hs : s.size ≤ maxLen) (w : World) :
    Calls Tryz.prog 174 #[.string s, .int .i64 16] w fun e w' => e = .returned (.tuple #[.int .i64 (digRun hexB 16 s.data.toList 0 0).1, .int .i64 (digRun hexB 16 s.data.toList 0 0).2]) ∧ Below w.heap.size w w' := by
  unfold maxLen at hs
  obtain ⟨res, hres⟩ : ∃ res, res = digRun hexB 16 s.data.toList 0 0 := ⟨_, rfl⟩
  rw [← hres]
  have HR := Lib.hid hres
  clear hres
  go_enter Tryz.func174, Tryz.ntmps174
  go_wp2_with fail
  go_loopw [4, 5] (fun c i wr => ∃ (k : Nat) (cv : Int), k ≤ s.size ∧ i = .int .i64 k ∧ c = .int .i64 cv ∧ 0 ≤ cv ∧ cv ≤ 1114112 ∧ digRun hexB 16 (s.data.toList.drop k) cv k = res ∧ Below w.heap.size w wr) (fun _ i _ => s.size - (intOf i).toNat)
  case atStart => exact ⟨0, 0, Nat.zero_le _, rfl, rfl, by omega, by omega, HR.out.symm, Below.refl _ _⟩
  case round =>
    obtain ⟨k, cv, hk, rfl, rfl, hc0, hc1, hd, hB⟩ := hrel
    have HD := Lib.hid hd
    clear hd
    by_cases hlt : k < s.size
    · have hb0 : (0 : Int) ≤ ((s[k]'hlt).toNat : Int) := by omega
      have hb1 : ((s[k]'hlt).toNat : Int) ≤ 255 := by have := (s[k]'hlt).toNat_lt; omega
      have hd := HD.out
      rw [drop_byte s k hlt] at hd
      unfold digRun at hd
      cases hp : hexB ((s[k]'hlt).toNat : Int) with
      | true =>
        rw [hp, if_pos rfl] at hd
        have HD2 := Lib.hid hd
        have Hp := Lib.hid hp
        obtain ⟨dv0, dv1⟩ := dvZ_bd hb0 hb1
        have HV := Lib.hid (fun w => digitValue _ hb0 hb1 w)
        clear hd hp
        generalize dvZ ((s[k]'hlt).toNat : Int) = dv at HD2 HV dv0 dv1
        by_cases hmx : cv * 16 + dv ≤ 1114112
        · have e : min (cv * 16 + dv) 1114112 = cv * 16 + dv := Int.min_eq_left hmx
          have HE := Lib.hid e
          clear e
          go_wp2_with (first | (go_at_call 217; refine (isHex _ _).mono ?_; rw [Hp.out]; rintro e w' ⟨rfl, hb⟩) | (go_at_call 218; refine (HV.out _).mono ?_; rintro e w2 ⟨rfl, hb2⟩))
          go_roundw
          case rel => exact ⟨k + 1, cv * 16 + dv, by omega, by go_num, rfl, by omega, hmx, by have := HD2.out; rw [HE.out] at this; exact this, below_next (below_next hB hb) hb2⟩
          case measure => simp [intOf]; omega
        · have e : min (cv * 16 + dv) 1114112 = 1114112 := Int.min_eq_right (by omega)
          have HE := Lib.hid e
          clear e
          go_wp2_with (first | (go_at_call 217; refine (isHex _ _).mono ?_; rw [Hp.out]; rintro e w' ⟨rfl, hb⟩) | (go_at_call 218; refine (HV.out _).mono ?_; rintro e w2 ⟨rfl, hb2⟩))
          go_roundw
          case rel => exact ⟨k + 1, 1114112, by omega, by go_num, rfl, by omega, by omega, by have := HD2.out; rw [HE.out] at this; exact this, below_next (below_next hB hb) hb2⟩
          case measure => simp [intOf]; omega
      | false =>
        rw [hp, if_neg (by simp)] at hd
        have HD2 := Lib.hid hd
        have Hp := Lib.hid hp
        clear hd hp
        go_wp2_with (first | (go_at_call 217; refine (isHex _ _).mono ?_; rw [Hp.out]; rintro e w' ⟨rfl, hb⟩))
        go_ret2
        rw [← HD2.out]
        exact ⟨rfl, below_next hB hb⟩
    · have hkk : s.data.toList.drop k = [] := drop_end s k (by omega)
      have hd := HD.out
      rw [hkk] at hd
      have HD2 := Lib.hid hd
      clear hd hkk
      go_wp2_with fail
      go_ret2
      rw [← HD2.out]
      exact ⟨rfl, hB⟩

theorem digits10 (s : ByteArray) (base : Int) (hbase : (base != 16) = true) (hs : s.size ≤ maxLen) (w : World) :
    Calls Tryz.prog 174 #[.string s, .int .i64 base] w fun e w' => e = .returned (.tuple #[.int .i64 (digRun digB 10 s.data.toList 0 0).1, .int .i64 (digRun digB 10 s.data.toList 0 0).2]) ∧ Below w.heap.size w w' := by
  unfold maxLen at hs
  obtain ⟨res, hres⟩ : ∃ res, res = digRun digB 10 s.data.toList 0 0 := ⟨_, rfl⟩
  rw [← hres]
  have HR := Lib.hid hres
  clear hres
  go_enter Tryz.func174, Tryz.ntmps174
  go_wp2_with fail
  go_loopw [4, 5] (fun c i wr => ∃ (k : Nat) (cv : Int), k ≤ s.size ∧ i = .int .i64 k ∧ c = .int .i64 cv ∧ 0 ≤ cv ∧ cv ≤ 1114112 ∧ digRun digB 10 (s.data.toList.drop k) cv k = res ∧ Below w.heap.size w wr) (fun _ i _ => s.size - (intOf i).toNat)
  case atStart => exact ⟨0, 0, Nat.zero_le _, rfl, rfl, by omega, by omega, HR.out.symm, Below.refl _ _⟩
  case round =>
    obtain ⟨k, cv, hk, rfl, rfl, hc0, hc1, hd, hB⟩ := hrel
    have HD := Lib.hid hd
    clear hd
    by_cases hlt : k < s.size
    · have hb0 : (0 : Int) ≤ ((s[k]'hlt).toNat : Int) := by omega
      have hb1 : ((s[k]'hlt).toNat : Int) ≤ 255 := by have := (s[k]'hlt).toNat_lt; omega
      have hd := HD.out
      rw [drop_byte s k hlt] at hd
      unfold digRun at hd
      cases hp : digB ((s[k]'hlt).toNat : Int) with
      | true =>
        rw [hp, if_pos rfl] at hd
        have HD2 := Lib.hid hd
        have Hp := Lib.hid hp
        obtain ⟨dv0, dv1⟩ := dvZ_bd hb0 hb1
        have HV := Lib.hid (fun w => digitValue _ hb0 hb1 w)
        clear hd hp
        generalize dvZ ((s[k]'hlt).toNat : Int) = dv at HD2 HV dv0 dv1
        by_cases hmx : cv * 10 + dv ≤ 1114112
        · have e : min (cv * 10 + dv) 1114112 = cv * 10 + dv := Int.min_eq_left hmx
          have HE := Lib.hid e
          clear e
          go_wp2_with (first | (go_at_call 170; refine (isDigit _ _).mono ?_; rw [Hp.out]; rintro e w' ⟨rfl, hb⟩) | (go_at_call 218; refine (HV.out _).mono ?_; rintro e w2 ⟨rfl, hb2⟩))
          go_roundw
          case rel => exact ⟨k + 1, cv * 10 + dv, by omega, by go_num, rfl, by omega, hmx, by have := HD2.out; rw [HE.out] at this; exact this, below_next (below_next hB hb) hb2⟩
          case measure => simp [intOf]; omega
        · have e : min (cv * 10 + dv) 1114112 = 1114112 := Int.min_eq_right (by omega)
          have HE := Lib.hid e
          clear e
          go_wp2_with (first | (go_at_call 170; refine (isDigit _ _).mono ?_; rw [Hp.out]; rintro e w' ⟨rfl, hb⟩) | (go_at_call 218; refine (HV.out _).mono ?_; rintro e w2 ⟨rfl, hb2⟩))
          go_roundw
          case rel => exact ⟨k + 1, 1114112, by omega, by go_num, rfl, by omega, by omega, by have := HD2.out; rw [HE.out] at this; exact this, below_next (below_next hB hb) hb2⟩
          case measure => simp [intOf]; omega
      | false =>
        rw [hp, if_neg (by simp)] at hd
        have HD2 := Lib.hid hd
        have Hp := Lib.hid hp
        clear hd hp
        go_wp2_with (first | (go_at_call 170; refine (isDigit _ _).mono ?_; rw [Hp.out]; rintro e w' ⟨rfl, hb⟩))
        go_ret2
        rw [← HD2.out]
        exact ⟨rfl, below_next hB hb⟩
    · have hkk : s.data.toList.drop k = [] := drop_end s k (by omega)
      have hd := HD.out
      rw [hkk] at hd
      have HD2 := Lib.hid hd
      clear hd hkk
      go_wp2_with fail
      go_ret2
      rw [← HD2.out]
      exact ⟨rfl, hB⟩

end Go.Proofs.YtnfccckodgknjaaGreatDoor
