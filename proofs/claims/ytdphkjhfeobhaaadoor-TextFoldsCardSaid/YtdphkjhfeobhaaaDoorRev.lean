/-
  The document's own reading of element names and attribute names.
-/
import Derived.Test.YtdphkjhfeobhaaaDoorRel
namespace Go.Proofs.YtdphkjhfeobhaaaDoor
open Go.RowKit
set_option maxHeartbeats 1000000
set_option maxRecDepth 100000

theorem rest_list (s : ByteArray) : (s.extract 1 s.size).data.toList = s.data.toList.drop 1 := by
  rw [Lib.extract_data]
  exact List.take_of_length_le (by rw [List.length_drop, Array.length_toList]; exact Nat.le_refl _)
theorem tail_no (p : Int → Bool) (s : ByteArray) (j : Nat) (hj : 1 ≤ j) (h : j < s.size) (hp : p ((s[j]'h).toNat : Int) = false) : allB p (s.extract 1 s.size) = false := by
  unfold allB
  rw [rest_list, List.all_eq_false]
  refine ⟨s[j]'h, ?_, by simp [hp]⟩
  rw [List.mem_iff_getElem?]
  refine ⟨j - 1, ?_⟩
  rw [List.getElem?_drop, show 1 + (j - 1) = j by omega, Array.getElem?_toList]
  exact Array.getElem?_eq_getElem (xs := s.data) h
theorem tail_yes (p : Int → Bool) (s : ByteArray) (hp : ∀ j (h : j < s.size), 1 ≤ j → p ((s[j]'h).toNat : Int) = true) : allB p (s.extract 1 s.size) = true := by
  unfold allB
  rw [rest_list, List.all_eq_true]
  intro x hx
  obtain ⟨i, hi⟩ := List.mem_iff_getElem?.mp hx
  rw [List.getElem?_drop, Array.getElem?_toList] at hi
  obtain ⟨h, e⟩ := Array.getElem?_eq_some_iff.mp hi
  have := hp (1 + i) h (by omega)
  rw [← e]
  exact this
theorem vElem_let (s : ByteArray) (h0 : 0 < s.size) (hl : letB ((s[0]'h0).toNat : Int) = true) : vElem s = allB bareP s := by
  unfold vElem
  rw [dif_pos h0, if_pos hl]
  unfold allB
  rw [rest_list]
  have e := drop_byte s 0 h0
  rw [List.drop_zero] at e
  have hb : bareP ((s[0]'h0).toNat : Int) = true := by
    rw [bareP_eq]
    unfold letB at hl
    simp [spB] at hl ⊢
    omega
  conv => rhs; rw [e, List.all_cons, hb, Bool.true_and]
theorem vElem_oth (s : ByteArray) (h0 : 0 < s.size) (hl : letB ((s[0]'h0).toNat : Int) = false) : vElem s = (startB ((s[0]'h0).toNat : Int) && allB nameB (s.extract 1 s.size)) := by
  unfold vElem
  rw [dif_pos h0, if_neg (by simp [hl])]

theorem rValidElement (s : ByteArray) (hs : s.size ≤ maxLen) (w : World) : Calls Tryd.prog 55 #[.string s] w fun e w' => e = .returned (.bool (vElem s)) ∧ w' = w := by
  have HB := Lib.hid (rBare s hs)
  unfold maxLen at hs
  by_cases h0 : 0 < s.size
  · have h255 : ((s[0]'h0).toNat : Int) ≤ 255 := by have := (s[0]'h0).toNat_lt; omega
    have hz : ((s.size : Int) == 0) = false := by rw [beq_eq_false_iff_ne]; omega
    cases hl : letB ((s[0]'h0).toNat : Int) with
    | true =>
      have HV := Lib.hid (vElem_let s h0 hl)
      have HL := Lib.hid hl
      clear hl
      go_enter Tryd.func55, Tryd.ntmps55
      go_wp2_with (first | (go_at_call 41; refine (rLetter _ _).mono ?_; rw [HL.out]; rintro e w' ⟨rfl, rfl⟩) | (go_at_call 90; refine (HB.out _).mono ?_; rintro e w' ⟨rfl, rfl⟩))
      go_ret
      exact ⟨ret_bool HV.out.symm, rfl⟩
    | false =>
      have HV := Lib.hid (vElem_oth s h0 hl)
      have HL := Lib.hid hl
      clear hl
      cases hst : startB ((s[0]'h0).toNat : Int) with
      | false =>
        have hv := HV.out
        rw [hst, Bool.false_and] at hv
        have HV2 := Lib.hid hv
        rw [startB_eq _ h255] at hst
        simp only [Bool.not_eq_false', Bool.and_eq_true, Bool.not_eq_true'] at hst
        obtain ⟨⟨t1, t2⟩, t3⟩ := hst
        have t4 : ((s[0]'h0).toNat : Int) < 128 := by simpa using t3
        have t5 : (((s[0]'h0).toNat : Int) != 58) = true := by simp only [bne, t1]; rfl
        have t6 : (((s[0]'h0).toNat : Int) != 95) = true := by simp only [bne, t2]; rfl
        clear hv t3
        go_enter Tryd.func55, Tryd.ntmps55
        go_wp2_with (go_at_call 41; refine (rLetter _ _).mono ?_; rw [HL.out]; rintro e w' ⟨rfl, rfl⟩)
        go_ret
        exact ⟨ret_bool HV2.out.symm, rfl⟩
      | true =>
        have hv := HV.out
        rw [hst, Bool.true_and] at hv
        have HV2 := Lib.hid hv
        rw [startB_eq _ h255] at hst
        clear hv
        have hc : (((s[0]'h0).toNat : Int) == 58) = true ∨ ((((s[0]'h0).toNat : Int) == 58) = false ∧ ((((s[0]'h0).toNat : Int) == 95) = true ∨ ((((s[0]'h0).toNat : Int) == 95) = false ∧ 128 ≤ ((s[0]'h0).toNat : Int)))) := by
          cases q1 : (((s[0]'h0).toNat : Int) == 58)
          · cases q2 : (((s[0]'h0).toNat : Int) == 95)
            · rw [q1, q2] at hst
              simp at hst
              simp; omega
            · simp
          · simp
        clear hst
        rcases hc with t1 | ⟨t1, t2 | ⟨t2, t3⟩⟩
        all_goals
          have t4 : (((s[0]'h0).toNat : Int) != 58) = !(((s[0]'h0).toNat : Int) == 58) := rfl
          rw [t1] at t4
          simp only [Bool.not_true, Bool.not_false] at t4
          try
            have t5 : (((s[0]'h0).toNat : Int) != 95) = !(((s[0]'h0).toNat : Int) == 95) := rfl
            rw [t2] at t5
            simp only [Bool.not_true, Bool.not_false] at t5
          go_enter Tryd.func55, Tryd.ntmps55
          go_wp2_with (go_at_call 41; refine (rLetter _ _).mono ?_; rw [HL.out]; rintro e w' ⟨rfl, rfl⟩)
          go_loop [3] (fun i => ∃ k : Nat, 1 ≤ k ∧ k ≤ s.size ∧ i = .int .i64 k ∧ ∀ j (h : j < s.size), 1 ≤ j → j < k → nameB ((s[j]'h).toNat : Int) = true) (fun i => s.size - (intOf i).toNat)
          case atStart => exact ⟨1, Nat.le_refl _, h0, rfl, fun j _ h1 h2 => by omega⟩
          case round =>
            obtain ⟨k, hk1, hk, rfl, hall⟩ := hrel
            have HALL := Lib.hid hall
            clear hall
            by_cases hlt : k < s.size
            · have hI : (k : Int) < (s.size : Int) := by omega
              have hx255 : ((s[k]'hlt).toNat : Int) ≤ 255 := by have := (s[k]'hlt).toNat_lt; omega
              have HNEXT : Hid (nameB ((s[k]'hlt).toNat : Int) = true → ∀ j (h : j < s.size), 1 ≤ j → j < k + 1 → nameB ((s[j]'h).toNat : Int) = true) := Lib.hid (by
                intro hn j h h1 h2
                by_cases e : j = k
                · subst e; exact hn
                · exact HALL.out j h h1 (by omega))
              cases ha : alnB ((s[k]'hlt).toNat : Int) with
              | true =>
                have HA := Lib.hid ha
                have HN := Lib.hid (HNEXT.out (by rw [nameB_eq _ hx255, ha]; rfl))
                clear ha
                go_wp2_with (first | (go_at_call 41; refine (rLetter _ _).mono ?_; rw [HL.out]; rintro e w' ⟨rfl, rfl⟩) | (go_at_call 47; refine (rAlnum _ _).mono ?_; rw [HA.out]; rintro e w' ⟨rfl, rfl⟩))
                go_round
                case rel => exact ⟨k + 1, by omega, by omega, by go_num, HN.out⟩
                case measure => simp [intOf]; omega
              | false =>
                have HA := Lib.hid ha
                clear ha
                cases g45 : (((s[k]'hlt).toNat : Int) == 45) with
                | true =>
                  have HN := Lib.hid (HNEXT.out (by rw [nameB_eq _ hx255, g45]; simp))
                  have n45 : (((s[k]'hlt).toNat : Int) != 45) = false := by simp only [bne, g45]; rfl
                  go_wp2_with (first | (go_at_call 41; refine (rLetter _ _).mono ?_; rw [HL.out]; rintro e w' ⟨rfl, rfl⟩) | (go_at_call 47; refine (rAlnum _ _).mono ?_; rw [HA.out]; rintro e w' ⟨rfl, rfl⟩))
                  go_round
                  case rel => exact ⟨k + 1, by omega, by omega, by go_num, HN.out⟩
                  case measure => simp [intOf]; omega
                | false =>
                  have n45 : (((s[k]'hlt).toNat : Int) != 45) = true := by simp only [bne, g45]; rfl
                  cases g46 : (((s[k]'hlt).toNat : Int) == 46) with
                  | true =>
                    have HN := Lib.hid (HNEXT.out (by rw [nameB_eq _ hx255, g46]; simp))
                    have n46 : (((s[k]'hlt).toNat : Int) != 46) = false := by simp only [bne, g46]; rfl
                    go_wp2_with (first | (go_at_call 41; refine (rLetter _ _).mono ?_; rw [HL.out]; rintro e w' ⟨rfl, rfl⟩) | (go_at_call 47; refine (rAlnum _ _).mono ?_; rw [HA.out]; rintro e w' ⟨rfl, rfl⟩))
                    go_round
                    case rel => exact ⟨k + 1, by omega, by omega, by go_num, HN.out⟩
                    case measure => simp [intOf]; omega
                  | false =>
                    have n46 : (((s[k]'hlt).toNat : Int) != 46) = true := by simp only [bne, g46]; rfl
                    cases g58 : (((s[k]'hlt).toNat : Int) == 58) with
                    | true =>
                      have HN := Lib.hid (HNEXT.out (by rw [nameB_eq _ hx255, g58]; simp))
                      have n58 : (((s[k]'hlt).toNat : Int) != 58) = false := by simp only [bne, g58]; rfl
                      go_wp2_with (first | (go_at_call 41; refine (rLetter _ _).mono ?_; rw [HL.out]; rintro e w' ⟨rfl, rfl⟩) | (go_at_call 47; refine (rAlnum _ _).mono ?_; rw [HA.out]; rintro e w' ⟨rfl, rfl⟩))
                      go_round
                      case rel => exact ⟨k + 1, by omega, by omega, by go_num, HN.out⟩
                      case measure => simp [intOf]; omega
                    | false =>
                      have n58 : (((s[k]'hlt).toNat : Int) != 58) = true := by simp only [bne, g58]; rfl
                      cases g95 : (((s[k]'hlt).toNat : Int) == 95) with
                      | true =>
                        have HN := Lib.hid (HNEXT.out (by rw [nameB_eq _ hx255, g95]; simp))
                        have n95 : (((s[k]'hlt).toNat : Int) != 95) = false := by simp only [bne, g95]; rfl
                        go_wp2_with (first | (go_at_call 41; refine (rLetter _ _).mono ?_; rw [HL.out]; rintro e w' ⟨rfl, rfl⟩) | (go_at_call 47; refine (rAlnum _ _).mono ?_; rw [HA.out]; rintro e w' ⟨rfl, rfl⟩))
                        go_round
                        case rel => exact ⟨k + 1, by omega, by omega, by go_num, HN.out⟩
                        case measure => simp [intOf]; omega
                      | false =>
                        have n95 : (((s[k]'hlt).toNat : Int) != 95) = true := by simp only [bne, g95]; rfl
                        by_cases g128 : ((s[k]'hlt).toNat : Int) < 128
                        · skip
                          have HNO : Hid (nameB ((s[k]'hlt).toNat : Int) = false) := Lib.hid (by rw [nameB_eq _ hx255, HA.out, g45, g46, g58, g95, decide_eq_true g128]; rfl)
                          go_wp2_with (first | (go_at_call 41; refine (rLetter _ _).mono ?_; rw [HL.out]; rintro e w' ⟨rfl, rfl⟩) | (go_at_call 47; refine (rAlnum _ _).mono ?_; rw [HA.out]; rintro e w' ⟨rfl, rfl⟩))
                          go_ret
                          exact ⟨ret_bool (HV2.out.trans (tail_no nameB s k hk1 hlt HNO.out)).symm, rfl⟩
                        · have g128' : 128 ≤ ((s[k]'hlt).toNat : Int) := by omega
                          have HN := Lib.hid (HNEXT.out (by rw [nameB_eq _ hx255, decide_eq_false g128]; simp))
                          clear g128
                          go_wp2_with (first | (go_at_call 41; refine (rLetter _ _).mono ?_; rw [HL.out]; rintro e w' ⟨rfl, rfl⟩) | (go_at_call 47; refine (rAlnum _ _).mono ?_; rw [HA.out]; rintro e w' ⟨rfl, rfl⟩))
                          go_round
                          case rel => exact ⟨k + 1, by omega, by omega, by go_num, HN.out⟩
                          case measure => simp [intOf]; omega

            · go_wp2_with fail
              go_ret
              exact ⟨ret_bool (HV2.out.trans (tail_yes nameB s (fun j h h1 => HALL.out j h h1 (by omega)))).symm, rfl⟩
  · have hz : ((s.size : Int) == 0) = true := by rw [beq_iff_eq]; omega
    have HV : Hid (vElem s = false) := Lib.hid (by unfold vElem; rw [dif_neg h0])
    go_enter Tryd.func55, Tryd.ntmps55
    go_wp2_with fail
    go_ret
    exact ⟨ret_bool HV.out.symm, rfl⟩
end Go.Proofs.YtdphkjhfeobhaaaDoor
