/-
  The document's own reading of what is an encoding.
-/
import Derived.Test.YtdphkjhfeobhaaaDoorLin
namespace Go.Proofs.YtdphkjhfeobhaaaDoor
open Go.RowKit
set_option maxHeartbeats 1000000
set_option maxRecDepth 100000

def wantZ (b : Int) : Int := if b < 128 then 1 else if 194 ≤ b ∧ b ≤ 223 then 2 else if 224 ≤ b ∧ b ≤ 239 then 3 else if 240 ≤ b ∧ b ≤ 244 then 4 else 0
def moreB (c : Int) : Bool := decide (128 ≤ c) && decide (c ≤ 191)
def secB (a c : Int) : Bool :=
  if a = 224 then decide (160 ≤ c) && decide (c ≤ 191) else if a = 237 then decide (128 ≤ c) && decide (c ≤ 159) else if a = 240 then decide (144 ≤ c) && decide (c ≤ 191) else if a = 244 then decide (128 ≤ c) && decide (c ≤ 143) else moreB c

theorem rMore (c : Int) (w : World) : Calls Tryd.prog 123 #[.int .u8 c] w fun e w' => e = .returned (.bool (moreB c)) ∧ w' = w := by
  go_enter Tryd.func123, Tryd.ntmps123
  go_wp2
  all_goals go_ret
  all_goals exact ⟨ret_bool (by rw [Bool.eq_iff_iff]; simp [moreB, *] <;> omega), rfl⟩
theorem secB_224 (c : Int) : secB 224 c = (decide (160 ≤ c) && decide (c ≤ 191)) := rfl
theorem secB_237 (c : Int) : secB 237 c = (decide (128 ≤ c) && decide (c ≤ 159)) := rfl
theorem secB_240 (c : Int) : secB 240 c = (decide (144 ≤ c) && decide (c ≤ 191)) := rfl
theorem secB_244 (c : Int) : secB 244 c = (decide (128 ≤ c) && decide (c ≤ 143)) := rfl
theorem secB_oth (a c : Int) (h1 : ¬ a = 224) (h2 : ¬ a = 237) (h3 : ¬ a = 240) (h4 : ¬ a = 244) : secB a c = moreB c := by unfold secB; rw [if_neg h1, if_neg h2, if_neg h3, if_neg h4]
theorem rSecond (a c : Int) (w : World) : Calls Tryd.prog 122 #[.int .u8 a, .int .u8 c] w fun e w' => e = .returned (.bool (secB a c)) ∧ w' = w := by
  by_cases h1 : a = 224
  · subst h1
    go_enter Tryd.func122, Tryd.ntmps122
    go_wp2
    all_goals go_ret
    all_goals exact ⟨ret_bool (by rw [secB_224, Bool.eq_iff_iff]; simp [*] <;> omega), rfl⟩
  by_cases h2 : a = 237
  · subst h2
    go_enter Tryd.func122, Tryd.ntmps122
    go_wp2
    all_goals go_ret
    all_goals exact ⟨ret_bool (by rw [secB_237, Bool.eq_iff_iff]; simp [*] <;> omega), rfl⟩
  by_cases h3 : a = 240
  · subst h3
    go_enter Tryd.func122, Tryd.ntmps122
    go_wp2
    all_goals go_ret
    all_goals exact ⟨ret_bool (by rw [secB_240, Bool.eq_iff_iff]; simp [*] <;> omega), rfl⟩
  by_cases h4 : a = 244
  · subst h4
    go_enter Tryd.func122, Tryd.ntmps122
    go_wp2
    all_goals go_ret
    all_goals exact ⟨ret_bool (by rw [secB_244, Bool.eq_iff_iff]; simp [*] <;> omega), rfl⟩
  have HS := Lib.hid (secB_oth a c h1 h2 h3 h4)
  have g1 := beq_eq_false_iff_ne.mpr h1
  have g2 := beq_eq_false_iff_ne.mpr h2
  have g3 := beq_eq_false_iff_ne.mpr h3
  have g4 := beq_eq_false_iff_ne.mpr h4
  go_enter Tryd.func122, Tryd.ntmps122
  go_wp2_with (go_at_call 123; refine (rMore _ _).mono ?_; rintro e w' ⟨rfl, rfl⟩)
  all_goals go_ret
  all_goals exact ⟨ret_bool (by rw [HS.out]), rfl⟩
theorem rWant (b : Int) (w : World) : Calls Tryd.prog 82 #[.int .u8 b] w fun e w' => e = .returned (.int .i64 (wantZ b)) ∧ w' = w := by
  go_enter Tryd.func82, Tryd.ntmps82
  go_wp2
  all_goals go_ret
  all_goals exact ⟨ret_int (by unfold wantZ; (repeat' split) <;> omega), rfl⟩

/-- An encoding or a partial encoding (of the length that its first byte wants, or less). -/
def contB (a : Int) : List UInt8 → Nat → Bool
  | [], _ => true
  | x :: t, i => (if i = 1 then secB a x.toNat else true) && moreB x.toNat && contB a t (i + 1)
theorem rBegins (s : ByteArray) (h0 : 0 < s.size) (hs : s.size ≤ maxLen) (hw : ¬ wantZ ((s[0]'h0).toNat : Int) < (s.size : Int)) (w : World) :
    Calls Tryd.prog 105 #[.string s] w fun e w' => e = .returned (.bool (contB ((s[0]'h0).toNat : Int) (s.data.toList.drop 1) 1)) ∧ Below w.heap.size w w' := by
  unfold maxLen at hs
  have hz : ((s.size : Int) == 0) = false := by rw [beq_eq_false_iff_ne]; omega
  obtain ⟨res, hres⟩ : ∃ res, res = contB ((s[0]'h0).toNat : Int) (s.data.toList.drop 1) 1 := ⟨_, rfl⟩
  rw [← hres]
  have HR := Lib.hid hres
  clear hres
  have HW := Lib.hid hw
  have hwd : decide (wantZ ((s[0]'h0).toNat : Int) < (s.size : Int)) = false := by simpa using hw
  go_enter Tryd.func105, Tryd.ntmps105
  go_wp2_with (go_at_call 82; refine (rWant _ _).mono ?_; rintro e w' ⟨rfl, rfl⟩)
  clear hw hwd
  go_loopw [3] (fun i wr => ∃ k : Nat, 1 ≤ k ∧ k ≤ s.size ∧ i = .int .i64 k ∧ contB ((s[0]'h0).toNat : Int) (s.data.toList.drop k) k = res ∧ Below w'.heap.size w' wr) (fun i _ => s.size - (intOf i).toNat)
  case atStart => exact ⟨1, Nat.le_refl _, h0, rfl, HR.out.symm, Below.refl _ _⟩
  case round =>
    obtain ⟨k, hk1, hk, rfl, hc, hB⟩ := hrel
    by_cases hlt : k < s.size
    · have hI : (k : Int) < (s.size : Int) := by omega
      have hI1 : (1 : Int) ≤ (k : Int) := by omega
      rw [drop_byte s k hlt, contB] at hc
      have HC := Lib.hid hc
      clear hc
      cases hm : moreB ((s[k]'hlt).toNat : Int)
      all_goals by_cases h1 : k = 1
      · have hk2 : ((k : Int) == 1) = true := by rw [beq_iff_eq]; omega
        have hI0 : (0 : Int) < (s.size : Int) := by omega
        have hI2 : (1 : Int) < (s.size : Int) := by omega
        cases hs2 : secB ((s[0]'h0).toNat : Int) ((s[k]'hlt).toNat : Int)
        all_goals
          have HC2 : Hid (false = res) := Lib.hid (by have := HC.out; rw [hm] at this; simpa using this)
          have hs3 : secB ((s[0]'h0).toNat : Int) ((s[1]'(by omega)).toNat : Int) = secB ((s[0]'h0).toNat : Int) ((s[k]'hlt).toNat : Int) := by subst h1; rfl
          rw [hs2] at hs3
          have hm3 : moreB ((s[1]'(by omega)).toNat : Int) = moreB ((s[k]'hlt).toNat : Int) := by subst h1; rfl
          rw [hm] at hm3
          go_wp2_with fail
          go_quiet (first | (go_at_call 122; exact Calls.quiet_of_same (rSecond _ _ _)) | (go_at_call 123; exact Calls.quiet_of_same (rMore _ _)))
          go_wp2_with fail
          go_ret
          exact ⟨ret_bool HC2.out, below_drewN hB nq⟩
      · have hk2 : ((k : Int) == 1) = false := by rw [beq_eq_false_iff_ne]; omega
        have HC2 : Hid (false = res) := Lib.hid (by have := HC.out; rw [hm] at this; simpa using this)
        go_wp2_with fail
        go_quiet (first | (go_at_call 122; exact Calls.quiet_of_same (rSecond _ _ _)) | (go_at_call 123; exact Calls.quiet_of_same (rMore _ _)))
        go_wp2_with fail
        go_ret
        exact ⟨ret_bool HC2.out, below_drewN hB nq⟩
      · have hk2 : ((k : Int) == 1) = true := by rw [beq_iff_eq]; omega
        have hI0 : (0 : Int) < (s.size : Int) := by omega
        have hI2 : (1 : Int) < (s.size : Int) := by omega
        have hs3 : secB ((s[0]'h0).toNat : Int) ((s[1]'(by omega)).toNat : Int) = secB ((s[0]'h0).toNat : Int) ((s[k]'hlt).toNat : Int) := by subst h1; rfl
        cases hs2 : secB ((s[0]'h0).toNat : Int) ((s[k]'hlt).toNat : Int)
        · have HC2 : Hid (false = res) := Lib.hid (by have := HC.out; rw [hm, hs2, if_pos h1] at this; simpa using this)
          rw [hs2] at hs3
          have hm3 : moreB ((s[1]'(by omega)).toNat : Int) = moreB ((s[k]'hlt).toNat : Int) := by subst h1; rfl
          rw [hm] at hm3
          go_wp2_with fail
          go_quiet (first | (go_at_call 122; exact Calls.quiet_of_same (rSecond _ _ _)) | (go_at_call 123; exact Calls.quiet_of_same (rMore _ _)))
          go_wp2_with fail
          go_ret
          exact ⟨ret_bool HC2.out, below_drewN hB nq⟩
        · have HC2 : Hid (contB ((s[0]'h0).toNat : Int) (s.data.toList.drop (k + 1)) (k + 1) = res) := Lib.hid (by have := HC.out; rw [hm, hs2, if_pos h1] at this; simpa using this)
          rw [hs2] at hs3
          have hm3 : moreB ((s[1]'(by omega)).toNat : Int) = moreB ((s[k]'hlt).toNat : Int) := by subst h1; rfl
          rw [hm] at hm3
          go_wp2_with fail
          go_quiet (first | (go_at_call 122; exact Calls.quiet_of_same (rSecond _ _ _)) | (go_at_call 123; exact Calls.quiet_of_same (rMore _ _)))
          go_wp2_with fail
          go_roundw
          case rel => exact ⟨k + 1, by omega, by omega, by go_num, HC2.out, below_drewN hB nq⟩
          case measure => simp [intOf]; omega
      · have hk2 : ((k : Int) == 1) = false := by rw [beq_eq_false_iff_ne]; omega
        have HC2 : Hid (contB ((s[0]'h0).toNat : Int) (s.data.toList.drop (k + 1)) (k + 1) = res) := Lib.hid (by have := HC.out; rw [hm, if_neg h1] at this; simpa using this)
        go_wp2_with fail
        go_quiet (first | (go_at_call 122; exact Calls.quiet_of_same (rSecond _ _ _)) | (go_at_call 123; exact Calls.quiet_of_same (rMore _ _)))
        go_wp2_with fail
        go_roundw
        case rel => exact ⟨k + 1, by omega, by omega, by go_num, HC2.out, below_drewN hB nq⟩
        case measure => simp [intOf]; omega
    · rw [drop_end s k (by omega)] at hc
      have HC := Lib.hid hc
      clear hc
      go_wp2_with fail
      go_ret
      exact ⟨ret_bool (by rw [← HC.out]; rfl), hB⟩
end Go.Proofs.YtdphkjhfeobhaaaDoor
