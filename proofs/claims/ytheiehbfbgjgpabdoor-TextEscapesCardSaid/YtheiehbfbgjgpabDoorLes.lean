/-
  TextEscapes: the walk.
-/
import Derived.Test.YtheiehbfbgjgpabDoorBak
namespace Go.Proofs.YtheiehbfbgjgpabDoor
open Go.RowKit
set_option maxHeartbeats 1000000
set_option maxRecDepth 100000

theorem escF_len (f : UInt8 → List UInt8) (hf : ∀ b, (f b).length ≤ 6) : ∀ (n : Nat) (l : List UInt8), l.length ≤ n → (escF f l).length ≤ 6 * l.length
  | _, [], _ => by simp [escF]
  | 0, b :: t, h => by simp at h
  | n + 1, b :: t, h => by
    by_cases hn : b = 194 ∧ t.head? = some 160
    · obtain ⟨rfl, ht⟩ := hn
      cases t with
      | nil => simp at ht
      | cons x t =>
        simp at ht
        subst ht
        have ih2 := escF_len f hf n t (by simp at h; omega)
        rw [escF_n, List.length_append, show sNbsp.length = 6 from rfl, List.length_cons, List.length_cons]
        omega
    · have ih := escF_len f hf n t (by simp at h; omega)
      have := hf b
      rw [escF_b _ _ _ hn, List.length_append, List.length_cons]
      omega
theorem fT_len (b : UInt8) : (fT b).length ≤ 6 := by unfold fT; (repeat' split) <;> simp
theorem fV_len (b : UInt8) : (fV b).length ≤ 6 := by unfold fV; (repeat' split) <;> simp
theorem escTL_len (l : List UInt8) : (escTL l).length ≤ 6 * l.length := by rw [escTL_eq]; exact escF_len fT fT_len _ l (Nat.le_refl _)
theorem escVL_len (l : List UInt8) : (escVL l).length ≤ 6 * l.length := by rw [escVL_eq]; exact escF_len fV fV_len _ l (Nat.le_refl _)
theorem has_no (c : Int) (S : ByteArray) (h : ∀ x ∈ S.data.toList, ((x.toNat : Int)) ≠ c) : allB (fun b => !(b == c)) S = true := by
  unfold allB
  rw [List.all_eq_true]
  intro x hx
  simpa using h x hx
theorem same_bytes {S s : ByteArray} (h : S.data.toList = s.data.toList) : S = s := by
  cases S with | mk a => cases s with | mk b => congr 1; exact Array.toList_inj.1 h

theorem textEscapes (s : ByteArray) (m : Int) (w : World) (hm : Ml m w) :
    Calls Tryd.prog 8 #[.string s] w fun e w' => e = .returned (.bool true) ∧ Below w.heap.size w w' := by
  have HM := Lib.hid hm
  clear hm
  have HSM := Lib.hid (small s w)
  by_cases hs : s.size ≤ 65536
  · have hsm : decide (s.size ≤ 65536) = true := by simpa using hs
    rw [hsm] at HSM
    clear hsm
    have k1 := Lib.hid (escapeText s m (by omega) w HM.out)
    have k2 := Lib.hid (escapeValue s m (by omega))
    go_enter Tryd.func8, Tryd.ntmps8
    go_wp2_with fail
    refine HSM.out.mono ?_
    rintro e w' ⟨rfl, rfl⟩
    go_wp2_with fail
    refine k1.out.mono ?_
    rintro e w1 ⟨T, hT, rfl, hb1⟩
    have HT := Lib.hid hT
    clear hT k1
    go_wp2_with fail
    refine (k2.out _ (carry HM.out hb1)).mono ?_
    rintro e w2 ⟨V, hV, rfl, hb2⟩
    have HV := Lib.hid hV
    clear hV k2
    have hb2 := below_next hb1 hb2
    have lT : T.size ≤ 400000 := by
      have := escTL_len s.data.toList
      rw [← HT.out, size_list, size_list] at this
      omega
    have lV : V.size ≤ 400000 := by
      have := escVL_len s.data.toList
      rw [← HV.out, size_list, size_list] at this
      omega
    have k3 := Lib.hid (rHas T 60 (by unfold maxLen; omega))
    rw [has_no 60 T (by rw [HT.out]; intro x hx e; have := (escTL_no s.data.toList x hx).1; apply this; exact UInt8.toNat_inj.mp (by show _ = 60; omega))] at k3
    have k4 := Lib.hid (rHas T 62 (by unfold maxLen; omega))
    rw [has_no 62 T (by rw [HT.out]; intro x hx e; have := (escTL_no s.data.toList x hx).2; apply this; exact UInt8.toNat_inj.mp (by show _ = 62; omega))] at k4
    have k5 := Lib.hid (rHas V 34 (by unfold maxLen; omega))
    rw [has_no 34 V (by rw [HV.out]; intro x hx e; have := escVL_no s.data.toList x hx; apply this; exact UInt8.toNat_inj.mp (by show _ = 34; omega))] at k5
    have k6 := Lib.hid (lawBack T (by omega))
    rw [show (⟨(backL T.data.toList).toArray⟩ : ByteArray) = s from by rw [HT.out, back_escT]] at k6
    have k7 := Lib.hid (lawBack V (by omega))
    rw [show (⟨(backL V.data.toList).toArray⟩ : ByteArray) = s from by rw [HV.out, back_escV]] at k7
    clear HT HV lT lV
    go_wp2_with fail
    refine (k3.out _).mono ?_
    rintro e w3 ⟨rfl, rfl⟩
    go_wp2_with fail
    refine (k4.out _).mono ?_
    rintro e w4 ⟨rfl, rfl⟩
    go_wp2_with fail
    refine (k5.out _).mono ?_
    rintro e w5 ⟨rfl, rfl⟩
    go_wp2_with fail
    refine (k6.out _).mono ?_
    rintro e w6 ⟨rfl, hb6⟩
    have hb6 := below_next hb2 hb6
    go_wp2_with fail
    refine (k7.out _).mono ?_
    rintro e w7 ⟨rfl, hb7⟩
    have hb7 := below_next hb6 hb7
    go_wp2_with fail
    refine (known m _ (carry HM.out hb7)).mono ?_
    rintro e w8 ⟨rfl, hb8⟩
    have hb8 := below_next hb7 hb8
    go_wp2_with fail
    go_ret
    exact ⟨rfl, hb8⟩
  · have hsm : decide (s.size ≤ 65536) = false := by simpa using hs
    rw [hsm] at HSM
    clear hsm
    go_enter Tryd.func8, Tryd.ntmps8
    go_wp2_with fail
    refine HSM.out.mono ?_
    rintro e w' ⟨rfl, rfl⟩
    go_wp2_with fail
    refine (known m _ HM.out).mono ?_
    rintro e w5 ⟨rfl, hb5⟩
    go_wp2_with fail
    go_ret
    exact ⟨rfl, hb5⟩
end Go.Proofs.YtheiehbfbgjgpabDoor
