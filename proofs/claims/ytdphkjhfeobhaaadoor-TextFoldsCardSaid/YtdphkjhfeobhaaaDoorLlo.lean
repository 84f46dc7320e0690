/-
  TextLowers: the walk.
-/
import Derived.Test.YtdphkjhfeobhaaaDoorRlo
import Derived.Test.YtdphkjhfeobhaaaDoorLel
namespace Go.Proofs.YtdphkjhfeobhaaaDoor
open Go.RowKit
set_option maxHeartbeats 1000000
set_option maxRecDepth 100000

theorem allSpace (s : ByteArray) (hs : s.size ≤ maxLen) (w : World) :
    Calls Tryd.prog 50 #[.string s] w fun e w' => e = .returned (.bool (allB spB s)) ∧ Below w.heap.size w w' := by
  have HE := Lib.hid (every_any 36 #[] spB s hs w (enters_of Tryd.func36 (by kernel_rfl) rfl) (fun w' _ r _ _ => isSpace r w'))
  go_enter Tryd.func50, Tryd.ntmps50
  go_wp2_with (go_at_call 88; refine HE.out.mono ?_; rintro e w' ⟨rfl, hb⟩)
  go_ret
  exact ⟨rfl, hb⟩

theorem rAllSpace (s : ByteArray) (hs : s.size ≤ maxLen) (w : World) : Calls Tryd.prog 51 #[.string s] w fun e w' => e = .returned (.bool (allB spB s)) ∧ w' = w := by
  unfold maxLen at hs
  go_enter Tryd.func51, Tryd.ntmps51
  go_wp2_with fail
  go_loop [3] (fun i => ∃ k : Nat, k ≤ s.size ∧ i = .int .i64 k ∧ ((s.data.toList.take k).all fun b => spB b.toNat) = true) (fun i => s.size - (intOf i).toNat)
  case atStart => exact ⟨0, Nat.zero_le _, rfl, by simp⟩
  case round =>
    obtain ⟨k, hk, rfl, hall⟩ := hrel
    have HA := Lib.hid hall
    clear hall
    by_cases hlt : k < s.size
    · have hI : (k : Int) < (s.size : Int) := by omega
      cases hp : spB ((s[k]'hlt).toNat : Int) with
      | true =>
        have HN := Lib.hid (all_take_yes spB s k hlt hp HA.out)
        have H1 := Lib.hid hp
        clear hp
        go_wp2_with (go_at_call 37; refine (rSpace _ _).mono ?_; rw [H1.out]; rintro e w' ⟨rfl, rfl⟩)
        go_round
        case rel => exact ⟨k + 1, by omega, by go_num, HN.out⟩
        case measure => simp [intOf]; omega
      | false =>
        have HN := Lib.hid (all_no spB s k hlt hp)
        have H1 := Lib.hid hp
        clear hp
        go_wp2_with (go_at_call 37; refine (rSpace _ _).mono ?_; rw [H1.out]; rintro e w' ⟨rfl, rfl⟩)
        go_ret
        exact ⟨ret_bool HN.out.symm, rfl⟩
    · go_wp2_with fail
      go_ret
      exact ⟨ret_bool (all_take_end spB s k hlt HA.out).symm, rfl⟩

theorem lowU_low (b : UInt8) : lowU (lowU b) = lowU b := by
  apply UInt8.toNat_inj.mp
  have h := lowU_toNat (lowU b)
  have h2 := lowU_toNat b
  have : lowZ (lowZ (b.toNat : Int)) = lowZ b.toNat := by
    rcases up_cases (b.toNat : Int) with ⟨h1, h2, e⟩ | e
    · rw [e]; unfold lowZ upB; rw [if_neg (by simp; omega)]
    · rw [e, e]
  rw [h2] at h
  omega
theorem lowS_low (s : ByteArray) : lowS (lowS s) = lowS s := by
  unfold lowS
  simp [lowU_low]

theorem textLowers (s : ByteArray) (m : Int) (w : World) (hm : Ml m w) :
    Calls Tryd.prog 11 #[.string s] w fun e w' => e = .returned (.bool true) ∧ Below w.heap.size w w' := by
  have HM := Lib.hid hm
  clear hm
  have HSM := Lib.hid (small s w)
  by_cases hs : s.size ≤ 65536
  · have hsm : decide (s.size ≤ 65536) = true := by simpa using hs
    rw [hsm] at HSM
    clear hsm
    have z1 : s.size ≤ maxLen := by unfold maxLen; omega
    have z2 : (lowS s).size ≤ maxLen := by rw [lowS_size]; exact z1
    have c1 := Lib.hid (lower s z1)
    have c2 := Lib.hid (rLower s (by omega))
    have c3 := Lib.hid (lower (lowS s) z2)
    rw [lowS_low] at c3
    have c4 := Lib.hid (allSpace s z1)
    have c5 := Lib.hid (rAllSpace s z1)
    have hz := lowS_size s
    clear z1 z2
    generalize allB spB s = v at c4 c5
    generalize lowS s = t at c1 c2 c3 hz
    have hz2 : ((t.size : Int) == (s.size : Int)) = true := by rw [hz]; simp
    clear hz
    go_enter Tryd.func11, Tryd.ntmps11
    go_wp2_with fail
    refine HSM.out.mono ?_
    rintro e w' ⟨rfl, rfl⟩
    go_wp2_with fail
    refine (c1.out _).mono ?_
    rintro e w1 ⟨rfl, hb1⟩
    go_wp2_with fail
    refine (c2.out _).mono ?_
    rintro e w2 ⟨rfl, hb2⟩
    have hb2 := below_next hb1 hb2
    go_wp2_with fail
    refine (c3.out _).mono ?_
    rintro e w3 ⟨rfl, hb3⟩
    have hb3 := below_next hb2 hb3
    go_wp2_with fail
    refine (c4.out _).mono ?_
    rintro e w4 ⟨rfl, hb4⟩
    have hb4 := below_next hb3 hb4
    go_wp2_with fail
    refine (c5.out _).mono ?_
    rintro e w5 ⟨rfl, rfl⟩
    go_wp2_with fail
    refine (known m _ (carry HM.out hb4)).mono ?_
    rintro e w6 ⟨rfl, hb6⟩
    have hb6 := below_next hb4 hb6
    go_wp2_with fail
    go_ret
    exact ⟨rfl, hb6⟩
  · have hsm : decide (s.size ≤ 65536) = false := by simpa using hs
    rw [hsm] at HSM
    clear hsm
    go_enter Tryd.func11, Tryd.ntmps11
    go_wp2_with fail
    refine HSM.out.mono ?_
    rintro e w' ⟨rfl, rfl⟩
    go_wp2_with fail
    refine (known m _ HM.out).mono ?_
    rintro e w5 ⟨rfl, hb5⟩
    go_wp2_with fail
    go_ret
    exact ⟨rfl, hb5⟩
end Go.Proofs.YtdphkjhfeobhaaaDoor
