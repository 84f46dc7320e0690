/-
  TextElements: the walk.
-/
import Derived.Test.YtdphkjhfeobhaaaDoorRev
namespace Go.Proofs.YtdphkjhfeobhaaaDoor
open Go.RowKit
set_option maxHeartbeats 1000000
set_option maxRecDepth 100000

def vElemL : List UInt8 → Bool
  | [] => false
  | b :: t => if letB b.toNat then t.all (fun x => bareP x.toNat) else startB b.toNat && t.all (fun x => nameB x.toNat)
theorem vElem_list (s : ByteArray) : vElem s = vElemL s.data.toList := by
  by_cases h0 : 0 < s.size
  · have e := drop_byte s 0 h0
    rw [List.drop_zero] at e
    rw [e, vElemL]
    unfold vElem allB
    rw [dif_pos h0, rest_list]
  · have e : s.data.toList = [] := List.length_eq_zero_iff.1 (by rw [size_list]; omega)
    rw [e]
    unfold vElem
    rw [dif_neg h0]
    rfl
theorem up_cases (x : Int) : (65 ≤ x ∧ x ≤ 90 ∧ lowZ x = x + 32) ∨ lowZ x = x := by
  unfold lowZ upB
  split
  · rename_i h; simp at h; exact .inl ⟨h.1, h.2, rfl⟩
  · exact .inr rfl
theorem low_let (x : Int) : letB (lowZ x) = letB x := by
  rcases up_cases x with ⟨h1, h2, e⟩ | e
  · rw [e, Bool.eq_iff_iff]; simp [letB]; omega
  · rw [e]
theorem low_bare (x : Int) : bareP (lowZ x) = bareP x := by
  rcases up_cases x with ⟨h1, h2, e⟩ | e
  · rw [e, bareP_eq, bareP_eq, Bool.eq_iff_iff]; simp [spB]; omega
  · rw [e]
theorem low_name (x : Int) : nameB (lowZ x) = nameB x := by
  rcases up_cases x with ⟨h1, h2, e⟩ | e
  · have a1 : alnB (x + 32) = true := by simp [alnB, letB]; omega
    have a2 : alnB x = true := by simp [alnB, letB]; omega
    rw [e]
    unfold nameB
    rw [a1, a2]
    rfl
  · rw [e]
theorem low_start (x : Int) : startB (lowZ x) = startB x := by
  rcases up_cases x with ⟨h1, h2, e⟩ | e
  · rw [e, startB_eq _ (by omega), startB_eq _ (by omega), Bool.eq_iff_iff]; simp; omega
  · rw [e]
theorem all_low (p : Int → Bool) (hp : ∀ x : Int, p (lowZ x) = p x) (l : List UInt8) : (l.map lowU).all (fun x => p x.toNat) = l.all fun x => p x.toNat := by
  induction l with
  | nil => rfl
  | cons b t ih => rw [List.map_cons, List.all_cons, List.all_cons, ih, lowU_toNat, hp]
theorem vElem_low (s : ByteArray) : vElem (lowS s) = vElem s := by
  rw [vElem_list, vElem_list]
  have e : (lowS s).data.toList = s.data.toList.map lowU := by simp [lowS]
  rw [e]
  cases s.data.toList with
  | nil => rfl
  | cons b t =>
    rw [List.map_cons, vElemL, vElemL, all_low _ low_bare, all_low _ low_name, lowU_toNat, low_let, low_start]
theorem vElem_bad (s : ByteArray) (c : UInt8) (h1 : letB c.toNat = false) (h2 : startB c.toNat = false) (h3 : bareP c.toNat = false) (h4 : nameB c.toNat = false) : vElem (s ++ ⟨#[c]⟩) = false := by
  rw [vElem_list]
  have e : (s ++ ⟨#[c]⟩).data.toList = s.data.toList ++ [c] := by rw [ByteArray.data_append, Array.toList_append]
  rw [e]
  cases s.data.toList with
  | nil => simp [vElemL, h1, h2]
  | cons b t =>
    rw [List.cons_append, vElemL, List.all_append, List.all_append]
    simp [h3, h4]
theorem attrP_eq (b : Int) : attrP b = (bareP b && !(b == 61)) := by
  have e : memB ⟨#[0, 47, 61, 62]⟩ b = ((b == 0) || (b == 47) || (b == 61) || (b == 62)) := by
    rw [Bool.eq_iff_iff]
    simp [memB]
    omega
  unfold attrP notIn
  rw [e, bareP_eq]
  cases spB b <;> cases (b == 0) <;> cases (b == 47) <;> cases (b == 61) <;> cases (b == 62) <;> rfl
theorem all_attr (s : ByteArray) : allB attrP s = (allB bareP s && allB (fun b => !(b == 61)) s) := by
  unfold allB
  induction s.data.toList with
  | nil => rfl
  | cons b t ih =>
    rw [List.all_cons, List.all_cons, List.all_cons, ih, attrP_eq]
    generalize (t.all fun b => bareP b.toNat) = x
    generalize (t.all fun b => (fun b : Int => !(b == 61)) b.toNat) = y
    generalize bareP b.toNat = z
    show (z && !((b.toNat : Int) == 61) && (x && y)) = (z && x && (!((b.toNat : Int) == 61) && y))
    cases ((b.toNat : Int) == 61) <;> cases x <;> cases y <;> cases z <;> rfl
theorem vAttr_bad (s : ByteArray) : vAttr (s ++ ⟨#[61]⟩) = false := by
  unfold vAttr
  have e : allB attrP (s ++ ⟨#[61]⟩) = false := by
    unfold allB
    rw [ByteArray.data_append, Array.toList_append, List.all_append]
    have : attrP 61 = false := by rw [attrP_eq]; simp
    simp
    intro _
    exact this
  rw [e, Bool.and_false]

theorem rValidAttribute (s : ByteArray) (hs : s.size ≤ maxLen) (w : World) : Calls Tryd.prog 56 #[.string s] w fun e w' => e = .returned (.bool (vAttr s)) ∧ w' = w := by
  have HB := Lib.hid (rBare s hs)
  have HH := Lib.hid (rHas s 61 hs)
  unfold maxLen at hs
  have hv : vAttr s = (!s.toList.isEmpty && (allB bareP s && allB (fun b => !(b == 61)) s)) := by unfold vAttr; rw [all_attr]
  by_cases h0 : 0 < s.size
  · have hz : (0 : Int) < (s.size : Int) := by omega
    rw [show s.toList.isEmpty = false by simpa using toList_ne h0, Bool.not_false, Bool.true_and] at hv
    have HV := Lib.hid hv
    clear hv
    generalize allB (fun b => !(b == 61)) s = q at HH HV
    generalize allB bareP s = r at HB HV
    go_enter Tryd.func56, Tryd.ntmps56
    cases q <;> cases r
    all_goals
      go_wp2_with (first | (go_at_call 90; refine (HB.out _).mono ?_; rintro e w' ⟨rfl, rfl⟩) | (go_at_call 33; refine (HH.out _).mono ?_; rintro e w' ⟨rfl, rfl⟩))
      go_ret
      exact ⟨ret_bool HV.out.symm, rfl⟩
  · have hz : ¬ (0 : Int) < (s.size : Int) := by omega
    rw [toList_e h0] at hv
    have HV := Lib.hid hv
    clear hv
    go_enter Tryd.func56, Tryd.ntmps56
    go_wp2_with fail
    go_ret
    exact ⟨ret_bool HV.out.symm, rfl⟩

theorem textElements (s : ByteArray) (m : Int) (w : World) (hm : Ml m w) :
    Calls Tryd.prog 13 #[.string s] w fun e w' => e = .returned (.bool true) ∧ Below w.heap.size w w' := by
  have HM := Lib.hid hm
  clear hm
  have HSM := Lib.hid (small s w)
  by_cases hs : s.size ≤ 65536
  · have hsm : decide (s.size ≤ 65536) = true := by simpa using hs
    rw [hsm] at HSM
    clear hsm
    have z1 : s.size ≤ maxLen := by unfold maxLen; omega
    have z2 : (lowS s).size ≤ maxLen := by rw [lowS_size]; exact z1
    have z3 : ∀ c : UInt8, (s ++ ⟨#[c]⟩).size ≤ maxLen := fun c => by rw [ByteArray.size_append]; unfold maxLen; show _ + 1 ≤ _; omega
    have c1 := Lib.hid (validElement s z1)
    have c2 := Lib.hid (validAttribute s z1)
    have c3 := Lib.hid (rValidElement s z1)
    have c4 := Lib.hid (rValidAttribute s z1)
    have c5 := Lib.hid (lower s z1)
    have c6 := Lib.hid (validElement (lowS s) z2)
    rw [vElem_low] at c6
    have c7 := Lib.hid (validElement (s ++ ⟨#[32]⟩) (z3 32))
    have c8 := Lib.hid (validElement (s ++ ⟨#[62]⟩) (z3 62))
    have c9 := Lib.hid (validAttribute (s ++ ⟨#[61]⟩) (z3 61))
    rw [vElem_bad s 32 (by decide) (by decide) (by decide) (by decide)] at c7
    rw [vElem_bad s 62 (by decide) (by decide) (by decide) (by decide)] at c8
    rw [vAttr_bad] at c9
    clear z1 z2 z3
    generalize vElem s = v1 at c1 c3 c6
    generalize vAttr s = v2 at c2 c4
    generalize lowS s = t at c5 c6
    have hb : Below w.heap.size w w := Below.refl _ _
    go_enter Tryd.func13, Tryd.ntmps13
    go_wp2_with fail
    refine HSM.out.mono ?_
    rintro e w' ⟨rfl, rfl⟩
    go_wp2_with fail
    refine (c1.out _).mono ?_
    rintro e w1 ⟨rfl, hb1⟩
    go_wp2_with fail
    refine (c2.out _).mono ?_
    rintro e w2 ⟨rfl, hb2⟩
    have hb2 := below_next hb1 hb2
    go_wp2_with fail
    refine (c3.out _).mono ?_
    rintro e w3 ⟨rfl, rfl⟩
    go_wp2_with fail
    refine (c4.out _).mono ?_
    rintro e w4 ⟨rfl, rfl⟩
    go_wp2_with fail
    refine (c5.out _).mono ?_
    rintro e w5 ⟨rfl, hb5⟩
    have hb5 := below_next hb2 hb5
    go_wp2_with fail
    refine (c6.out _).mono ?_
    rintro e w6 ⟨rfl, hb6⟩
    have hb6 := below_next hb5 hb6
    go_wp2_with fail
    refine (c7.out _).mono ?_
    rintro e w7 ⟨rfl, hb7⟩
    have hb7 := below_next hb6 hb7
    go_wp2_with fail
    refine (c8.out _).mono ?_
    rintro e w8 ⟨rfl, hb8⟩
    have hb8 := below_next hb7 hb8
    go_wp2_with fail
    refine (c9.out _).mono ?_
    rintro e w9 ⟨rfl, hb9⟩
    have hb9 := below_next hb8 hb9
    go_wp2_with fail
    refine (known m _ (carry HM.out hb9)).mono ?_
    rintro e w10 ⟨rfl, hb10⟩
    have hb10 := below_next hb9 hb10
    go_wp2_with fail
    go_ret
    exact ⟨rfl, hb10⟩
  · have hsm : decide (s.size ≤ 65536) = false := by simpa using hs
    rw [hsm] at HSM
    clear hsm
    go_enter Tryd.func13, Tryd.ntmps13
    go_wp2_with fail
    refine HSM.out.mono ?_
    rintro e w' ⟨rfl, rfl⟩
    go_wp2_with fail
    refine (known m _ HM.out).mono ?_
    rintro e w5 ⟨rfl, hb5⟩
    go_wp2_with fail
    go_ret
    exact ⟨rfl, hb5⟩
end Go.Proofs.YtdphkjhfeobhaaaDoor
