/-
  TextEscaped: the walk.
-/
import Derived.Test.YtheiehbfbgjgpabDoorRsc
namespace Go.Proofs.YtheiehbfbgjgpabDoor
open Go.RowKit
set_option maxHeartbeats 2000000
set_option maxRecDepth 100000

theorem escF_len2 (f : UInt8 → List UInt8) (hf : ∀ b, (f b).length ≤ 6) : ∀ (n : Nat) (l : List UInt8), l.length ≤ n → (escF f l).length ≤ 6 * l.length
  | _, [], _ => by simp [escF]
  | 0, b :: t, h => by simp at h
  | n + 1, b :: t, h => by
    by_cases hn : b = 194 ∧ t.head? = some 160
    · obtain ⟨rfl, ht⟩ := hn
      cases t with
      | nil => simp at ht
      | cons x t =>
        simp at ht
        subst ht
        have ih2 := escF_len2 f hf n t (by simp at h; omega)
        rw [escF_n, List.length_append, show sNbsp.length = 6 from rfl, List.length_cons, List.length_cons]
        omega
    · have ih := escF_len2 f hf n t (by simp at h; omega)
      have := hf b
      rw [escF_b _ _ _ hn, List.length_append, List.length_cons]
      omega
theorem fT_len2 (b : UInt8) : (fT b).length ≤ 6 := by unfold fT; (repeat' split) <;> simp
theorem fV_len2 (b : UInt8) : (fV b).length ≤ 6 := by unfold fV; (repeat' split) <;> simp
theorem escTL_len2 (l : List UInt8) : (escTL l).length ≤ 6 * l.length := by rw [escTL_eq]; exact escF_len2 fT fT_len2 _ l (Nat.le_refl _)
theorem escVL_len2 (l : List UInt8) : (escVL l).length ≤ 6 * l.length := by rw [escVL_eq]; exact escF_len2 fV fV_len2 _ l (Nat.le_refl _)
theorem replace1B (s : ByteArray) (c : UInt8) (new : ByteArray) (hne : [c] ≠ new.data.toList) (hn : new.size ≤ 10) (m : Int) (hs : s.size ≤ 100000000) (w : World) (hm : w.cell? ⟨1, 0, none⟩ = some (.int .i64 m)) :
    Calls Tryd.prog 55 #[.string s, .string ⟨#[c]⟩, .string new] w fun e w' => ∃ S : ByteArray, S.data.toList = rep1 c new.data.toList s.data.toList ∧ e = .returned (.string S) ∧ Below w.heap.size w w' := by
  have hc := Lib.countB_le ⟨#[c]⟩ (Nat.le_refl 1) s.size s (Nat.le_refl _)
  have hl : s.size + Lib.countB s ⟨#[c]⟩ * new.size ≤ 140737488355328 := by
    have := Nat.mul_le_mul hc hn
    omega
  refine (Tryd.strings_ReplaceAll s ⟨#[c]⟩ new m w (by omega) hm (Nat.le_refl 1) hl).mono ?_
  rintro e w' ⟨rfl, hb⟩
  exact ⟨_, by show Lib.replaceAll s.data.toList [c] new.data.toList = _; exact ra_one c _ hne _, rfl, hb⟩

theorem replace2B (s : ByteArray) (c d : UInt8) (new : ByteArray) (hne : [c, d] ≠ new.data.toList) (hn : new.size ≤ 10) (m : Int) (hs : s.size ≤ 100000000) (w : World) (hm : w.cell? ⟨1, 0, none⟩ = some (.int .i64 m)) :
    Calls Tryd.prog 55 #[.string s, .string ⟨#[c, d]⟩, .string new] w fun e w' => ∃ S : ByteArray, S.data.toList = rep2 c d new.data.toList s.data.toList ∧ e = .returned (.string S) ∧ Below w.heap.size w w' := by
  have hc := Lib.countB_le ⟨#[c, d]⟩ (show 1 ≤ 2 by decide) s.size s (Nat.le_refl _)
  have hl : s.size + Lib.countB s ⟨#[c, d]⟩ * new.size ≤ 140737488355328 := by
    have := Nat.mul_le_mul hc hn
    omega
  refine (Tryd.strings_ReplaceAll s ⟨#[c, d]⟩ new m w (by omega) hm (show 1 ≤ 2 by decide) hl).mono ?_
  rintro e w' ⟨rfl, hb⟩
  exact ⟨_, by show Lib.replaceAll s.data.toList [c, d] new.data.toList = _; exact ra_two c d _ hne _ _ (Nat.le_refl _), rfl, hb⟩

theorem escapeSharedB (s : ByteArray) (m : Int) (hs : s.size ≤ 140000) (w : World) (hm : w.cell? ⟨1, 0, none⟩ = some (.int .i64 m)) :
    Calls Tryd.prog 54 #[.string s] w fun e w' => ∃ S : ByteArray, S.data.toList = shrL s.data.toList ∧ e = .returned (.string S) ∧ Below w.heap.size w w' := by
  go_enter Tryd.func54, Tryd.ntmps54
  go_wp2_with fail
  refine (replace1B s 38 ⟨#[38, 97, 109, 112, 59]⟩ (by decide) (by decide) m (by omega) w hm).mono ?_
  rintro e w1 ⟨S1, hS1, rfl, hb1⟩
  have HS1 := Lib.hid hS1
  have hl1 : S1.size ≤ 700000 := by
    rw [← size_list, hS1]
    have := rep1_len 38 [38, 97, 109, 112, 59] 5 (by decide) (by decide) s.data.toList
    rw [size_list] at this
    show (rep1 38 [38, 97, 109, 112, 59] s.data.toList).length ≤ _
    omega
  have hm1 := carry hm hb1
  clear hS1
  go_wp2_with fail
  refine (replace2B S1 194 160 ⟨#[38, 110, 98, 115, 112, 59]⟩ (by decide) (by decide) m (by omega) w1 hm1).mono ?_
  rintro e w2 ⟨S2, hS2, rfl, hb2⟩
  have HS2 := Lib.hid hS2
  clear hS2
  go_wp2
  go_ret
  exact ⟨S2, by rw [HS2.out, HS1.out]; rfl, rfl, below_next hb1 hb2⟩

theorem escapeTextB (s : ByteArray) (m : Int) (hs : s.size ≤ 140000) (w : World) (hm : w.cell? ⟨1, 0, none⟩ = some (.int .i64 m)) :
    Calls Tryd.prog 28 #[.string s] w fun e w' => ∃ S : ByteArray, S.data.toList = escTL s.data.toList ∧ e = .returned (.string S) ∧ Below w.heap.size w w' := by
  go_enter Tryd.func28, Tryd.ntmps28
  go_wp2_with fail
  refine (escapeSharedB s m hs w hm).mono ?_
  rintro e w1 ⟨S1, hS1, rfl, hb1⟩
  have HS1 := Lib.hid hS1
  have hl1 : S1.size ≤ 4200000 := by
    rw [← size_list, hS1]
    have := shrL_len s.data.toList
    rw [size_list] at this
    omega
  have hm1 := carry hm hb1
  clear hS1
  go_wp2_with fail
  refine (replace1B S1 60 ⟨#[38, 108, 116, 59]⟩ (by decide) (by decide) m (by omega) w1 hm1).mono ?_
  rintro e w2 ⟨S2, hS2, rfl, hb2⟩
  have HS2 := Lib.hid hS2
  have hl2 : S2.size ≤ 16800000 := by
    rw [← size_list, hS2]
    have := rep1_len 60 [38, 108, 116, 59] 4 (by decide) (by decide) S1.data.toList
    rw [size_list] at this
    show (rep1 60 [38, 108, 116, 59] S1.data.toList).length ≤ _
    omega
  have hm2 := carry hm1 hb2
  clear hS2
  go_wp2_with fail
  refine (replace1B S2 62 ⟨#[38, 103, 116, 59]⟩ (by decide) (by decide) m (by omega) w2 hm2).mono ?_
  rintro e w3 ⟨S3, hS3, rfl, hb3⟩
  have HS3 := Lib.hid hS3
  clear hS3
  go_wp2
  go_ret
  exact ⟨S3, by rw [HS3.out, HS2.out, HS1.out]; rfl, rfl, below_next (below_next hb1 hb2) hb3⟩

theorem escapeValueB (s : ByteArray) (m : Int) (hs : s.size ≤ 140000) (w : World) (hm : w.cell? ⟨1, 0, none⟩ = some (.int .i64 m)) :
    Calls Tryd.prog 29 #[.string s] w fun e w' => ∃ S : ByteArray, S.data.toList = escVL s.data.toList ∧ e = .returned (.string S) ∧ Below w.heap.size w w' := by
  go_enter Tryd.func29, Tryd.ntmps29
  go_wp2_with fail
  refine (escapeSharedB s m hs w hm).mono ?_
  rintro e w1 ⟨S1, hS1, rfl, hb1⟩
  have HS1 := Lib.hid hS1
  have hl1 : S1.size ≤ 4200000 := by
    rw [← size_list, hS1]
    have := shrL_len s.data.toList
    rw [size_list] at this
    omega
  have hm1 := carry hm hb1
  clear hS1
  go_wp2_with fail
  refine (replace1B S1 34 ⟨#[38, 113, 117, 111, 116, 59]⟩ (by decide) (by decide) m (by omega) w1 hm1).mono ?_
  rintro e w2 ⟨S2, hS2, rfl, hb2⟩
  have HS2 := Lib.hid hS2
  clear hS2
  go_wp2
  go_ret
  exact ⟨S2, by rw [HS2.out, HS1.out]; rfl, rfl, below_next hb1 hb2⟩

def eTS (s : ByteArray) : ByteArray := ⟨(escTL s.data.toList).toArray⟩
def eVS (s : ByteArray) : ByteArray := ⟨(escVL s.data.toList).toArray⟩
theorem escapeTextS (s : ByteArray) (m : Int) (hs : s.size ≤ 140000) (w : World) (hm : Ml m w) :
    Calls Tryd.prog 28 #[.string s] w fun e w' => e = .returned (.string (eTS s)) ∧ Below w.heap.size w w' := by
  refine (escapeTextB s m hs w hm).mono ?_
  rintro e w' ⟨S, h, rfl, hb⟩
  exact ⟨by rw [list_bytes S ⟨(escTL s.data.toList).toArray⟩ h]; rfl, hb⟩
theorem escapeValueS (s : ByteArray) (m : Int) (hs : s.size ≤ 140000) (w : World) (hm : Ml m w) :
    Calls Tryd.prog 29 #[.string s] w fun e w' => e = .returned (.string (eVS s)) ∧ Below w.heap.size w w' := by
  refine (escapeValueB s m hs w hm).mono ?_
  rintro e w' ⟨S, h, rfl, hb⟩
  exact ⟨by rw [list_bytes S ⟨(escVL s.data.toList).toArray⟩ h]; rfl, hb⟩
theorem rEscTextS (s : ByteArray) (hs : s.size ≤ 70000) (w : World) :
    Calls Tryd.prog 32 #[.string s] w fun e w' => e = .returned (.string (eTS s)) ∧ Below w.heap.size w w' := rEscText s hs w
theorem rEscValueS (s : ByteArray) (hs : s.size ≤ 70000) (w : World) :
    Calls Tryd.prog 33 #[.string s] w fun e w' => e = .returned (.string (eVS s)) ∧ Below w.heap.size w w' := rEscValue s hs w
theorem eTS_app (a b : ByteArray) (h : ¬ a.data.toList.getLast? = some 194) : eTS (a ++ b) = eTS a ++ eTS b := by
  apply list_bytes
  have e : ∀ x, (eTS x).data.toList = escTL x.data.toList := fun _ => rfl
  rw [ByteArray.data_append, Array.toList_append, e, e, e, ByteArray.data_append, Array.toList_append, escTL_eq, escTL_eq, escTL_eq, escF_app _ _ _ _ (Nat.le_refl _) h]
theorem eVS_app (a b : ByteArray) (h : ¬ a.data.toList.getLast? = some 194) : eVS (a ++ b) = eVS a ++ eVS b := by
  apply list_bytes
  have e : ∀ x, (eVS x).data.toList = escVL x.data.toList := fun _ => rfl
  rw [ByteArray.data_append, Array.toList_append, e, e, e, ByteArray.data_append, Array.toList_append, escVL_eq, escVL_eq, escVL_eq, escF_app _ _ _ _ (Nat.le_refl _) h]
theorem eTS_size (a : ByteArray) : (eTS a).size ≤ 6 * a.size := by
  have := escTL_len2 a.data.toList
  rw [size_list] at this
  rw [← size_list]
  exact this
theorem eVS_size (a : ByteArray) : (eVS a).size ≤ 6 * a.size := by
  have := escVL_len2 a.data.toList
  rw [size_list] at this
  rw [← size_list]
  exact this
theorem last_at (a : ByteArray) (h : a.size - 1 < a.size) : a.data.toList.getLast? = some (a[a.size - 1]'h) := by
  rw [List.getLast?_eq_getElem?, size_list, Array.getElem?_toList]
  exact Array.getElem?_eq_getElem (xs := a.data) h

theorem textEscaped (a b : ByteArray) (m : Int) (w : World) (hm : Ml m w) :
    Calls Tryd.prog 9 #[.string a, .string b] w fun e w' => e = .returned (.bool true) ∧ Below w.heap.size w w' := by
  have HM := Lib.hid hm
  clear hm
  have HSA := Lib.hid (small a)
  have HSB := Lib.hid (small b)
  by_cases ha : a.size ≤ 65536
  · rw [show decide (a.size ≤ 65536) = true by simpa using ha] at HSA
    by_cases hb : b.size ≤ 65536
    · rw [show decide (b.size ≤ 65536) = true by simpa using hb] at HSB
      have k1 := Lib.hid (escapeTextS a m (by omega))
      have k2 := Lib.hid (rEscTextS a (by omega))
      have k3 := Lib.hid (escapeValueS a m (by omega))
      have k4 := Lib.hid (rEscValueS a (by omega))
      have k5 := Lib.hid (escapeTextS (a ++ b) m (by rw [ByteArray.size_append]; omega))
      have k6 := Lib.hid (escapeTextS b m (by omega))
      have k7 := Lib.hid (escapeValueS (a ++ b) m (by rw [ByteArray.size_append]; omega))
      have k8 := Lib.hid (escapeValueS b m (by omega))
      have hsel : (a.size = 0 ∧ ¬ a.data.toList.getLast? = some 194) ∨ (∃ h : a.size - 1 < a.size, a[a.size - 1]'h = 194) ∨ (∃ h : a.size - 1 < a.size, ¬ a[a.size - 1]'h = 194 ∧ ¬ a.data.toList.getLast? = some 194) := by
        by_cases h0 : a.size = 0
        · refine .inl ⟨h0, ?_⟩
          have : a.data.toList = [] := List.length_eq_zero_iff.1 (by rw [size_list]; exact h0)
          rw [this]; simp
        · have h : a.size - 1 < a.size := by omega
          by_cases h2 : a[a.size - 1]'h = 194
          · exact .inr (.inl ⟨h, h2⟩)
          · exact .inr (.inr ⟨h, h2, by rw [last_at a h]; simpa using h2⟩)
      have z1 : (eTS a).size ≤ 400000 := by have := eTS_size a; omega
      have z2 : (eTS b).size ≤ 400000 := by have := eTS_size b; omega
      have z3 : (eVS a).size ≤ 400000 := by have := eVS_size a; omega
      have z4 : (eVS b).size ≤ 400000 := by have := eVS_size b; omega
      go_enter Tryd.func9, Tryd.ntmps9
      go_wp2_with fail
      refine (HSA.out _).mono ?_
      rintro e w' ⟨rfl, rfl⟩
      go_wp2_with fail
      refine (HSB.out _).mono ?_
      rintro e w' ⟨rfl, rfl⟩
      go_wp2_with fail
      refine (k1.out _ HM.out).mono ?_
      rintro e w1 ⟨rfl, hb1⟩
      go_wp2_with fail
      refine (k2.out _).mono ?_
      rintro e w2 ⟨rfl, hb2⟩
      have hb2 := below_next hb1 hb2
      go_wp2_with fail
      refine (k3.out _ (carry HM.out hb2)).mono ?_
      rintro e w3 ⟨rfl, hb3⟩
      have hb3 := below_next hb2 hb3
      go_wp2_with fail
      refine (k4.out _).mono ?_
      rintro e w4 ⟨rfl, hb4⟩
      have hb4 := below_next hb3 hb4
      clear hb1 hb2 hb3
      rcases hsel with ⟨h0, h1⟩ | ⟨h, h1⟩ | ⟨h, h1, h2⟩
      · have h3 : (a.size : Int) ≤ 0 := by omega
        rw [eTS_app a b h1] at k5
        rw [eVS_app a b h1] at k7
        clear h1 h0
        go_wp2_with fail
        refine (k5.out _ (carry HM.out hb4)).mono ?_
        rintro e w5 ⟨rfl, hb5⟩
        have hb5 := below_next hb4 hb5
        go_wp2_with fail
        refine (k1.out _ (carry HM.out hb5)).mono ?_
        rintro e w6 ⟨rfl, hb6⟩
        have hb6 := below_next hb5 hb6
        go_wp2_with fail
        refine (k6.out _ (carry HM.out hb6)).mono ?_
        rintro e w7 ⟨rfl, hb7⟩
        have hb7 := below_next hb6 hb7
        go_wp2_with fail
        refine (k7.out _ (carry HM.out hb7)).mono ?_
        rintro e w8 ⟨rfl, hb8⟩
        have hb8 := below_next hb7 hb8
        go_wp2_with fail
        refine (k3.out _ (carry HM.out hb8)).mono ?_
        rintro e w9 ⟨rfl, hb9⟩
        have hb9 := below_next hb8 hb9
        go_wp2_with fail
        refine (k8.out _ (carry HM.out hb9)).mono ?_
        rintro e w10 ⟨rfl, hb10⟩
        have hb10 := below_next hb9 hb10
        go_wp2_with fail
        refine (known m _ (carry HM.out hb10)).mono ?_
        rintro e w11 ⟨rfl, hb11⟩
        have hb11 := below_next hb10 hb11
        go_wp2_with fail
        go_ret
        exact ⟨rfl, hb11⟩
      · have h3 : (0 : Int) < (a.size : Int) := by omega
        have h4 : (a.size : Int) - 1 < (a.size : Int) := by omega
        have h5 : ((a.size : Int) - 1).toNat = a.size - 1 := by omega
        have h6 : (((a[a.size - 1]'h).toNat : Int) == 194) = true := by rw [h1]; rfl
        clear h1
        go_wp2_with fail
        refine (known m _ (carry HM.out hb4)).mono ?_
        rintro e w5 ⟨rfl, hb5⟩
        have hb5 := below_next hb4 hb5
        go_wp2_with fail
        go_ret
        exact ⟨rfl, hb5⟩
      · have h3 : (0 : Int) < (a.size : Int) := by omega
        have h4 : (a.size : Int) - 1 < (a.size : Int) := by omega
        have h5 : ((a.size : Int) - 1).toNat = a.size - 1 := by omega
        have h6 : (((a[a.size - 1]'h).toNat : Int) == 194) = false := by
          rw [beq_eq_false_iff_ne]
          intro e
          exact h1 (UInt8.toNat_inj.mp (by show _ = 194; omega))
        rw [eTS_app a b h2] at k5
        rw [eVS_app a b h2] at k7
        clear h1 h2
        go_wp2_with fail
        refine (k5.out _ (carry HM.out hb4)).mono ?_
        rintro e w5 ⟨rfl, hb5⟩
        have hb5 := below_next hb4 hb5
        go_wp2_with fail
        refine (k1.out _ (carry HM.out hb5)).mono ?_
        rintro e w6 ⟨rfl, hb6⟩
        have hb6 := below_next hb5 hb6
        go_wp2_with fail
        refine (k6.out _ (carry HM.out hb6)).mono ?_
        rintro e w7 ⟨rfl, hb7⟩
        have hb7 := below_next hb6 hb7
        go_wp2_with fail
        refine (k7.out _ (carry HM.out hb7)).mono ?_
        rintro e w8 ⟨rfl, hb8⟩
        have hb8 := below_next hb7 hb8
        go_wp2_with fail
        refine (k3.out _ (carry HM.out hb8)).mono ?_
        rintro e w9 ⟨rfl, hb9⟩
        have hb9 := below_next hb8 hb9
        go_wp2_with fail
        refine (k8.out _ (carry HM.out hb9)).mono ?_
        rintro e w10 ⟨rfl, hb10⟩
        have hb10 := below_next hb9 hb10
        go_wp2_with fail
        refine (known m _ (carry HM.out hb10)).mono ?_
        rintro e w11 ⟨rfl, hb11⟩
        have hb11 := below_next hb10 hb11
        go_wp2_with fail
        go_ret
        exact ⟨rfl, hb11⟩
    · rw [show decide (b.size ≤ 65536) = false by simpa using hb] at HSB
      go_enter Tryd.func9, Tryd.ntmps9
      go_wp2_with fail
      refine (HSA.out _).mono ?_
      rintro e w' ⟨rfl, rfl⟩
      go_wp2_with fail
      refine (HSB.out _).mono ?_
      rintro e w' ⟨rfl, rfl⟩
      go_wp2_with fail
      refine (known m _ HM.out).mono ?_
      rintro e w5 ⟨rfl, hb5⟩
      go_wp2_with fail
      go_ret
      exact ⟨rfl, hb5⟩
  · rw [show decide (a.size ≤ 65536) = false by simpa using ha] at HSA
    go_enter Tryd.func9, Tryd.ntmps9
    go_wp2_with fail
    refine (HSA.out _).mono ?_
    rintro e w' ⟨rfl, rfl⟩
    go_wp2_with fail
    refine (known m _ HM.out).mono ?_
    rintro e w5 ⟨rfl, hb5⟩
    go_wp2_with fail
    go_ret
    exact ⟨rfl, hb5⟩
end Go.Proofs.YtheiehbfbgjgpabDoor
