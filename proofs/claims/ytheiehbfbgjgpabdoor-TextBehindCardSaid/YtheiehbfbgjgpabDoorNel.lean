/-
  ValidElement.
-/
import Derived.Test.YtheiehbfbgjgpabDoorNan
namespace Go.Proofs.YtheiehbfbgjgpabDoor
open Go.RowKit Go.Shelf
set_option maxHeartbeats 2000000

def nameB (r : Int) : Bool := alnB r || (memB ⟨#[45, 46, 58, 95]⟩ r || betB 128 255 r)
def bareP : Int → Bool := notIn ⟨#[0, 47, 62]⟩
def startB (r : Int) : Bool := memB ⟨#[58, 95]⟩ r || betB 128 255 r
def vElem (s : ByteArray) : Bool := if h : 0 < s.size then (if letB (s[0]'h).toNat then allB bareP (s.extract 1 s.size) else startB (s[0]'h).toNat && allB nameB (s.extract 1 s.size)) else false

theorem validElement_e (s : ByteArray) (h0 : ¬ 0 < s.size) (w : World) :
    Calls Tryd.prog 37 #[.string s] w fun e w' => e = .returned (.bool (vElem s)) ∧ Below w.heap.size w w' := by
  have he := toList_e h0
  go_enter Tryd.func37, Tryd.ntmps37
  go_wp2
  go_ret
  exact ⟨ret_bool (by unfold vElem; rw [dif_neg h0]), by (repeat' (first | (with_reducible exact Below.refl _ _) | (with_reducible assumption) | (with_reducible refine below_alloc ?_ _) | (with_reducible refine Below.drew ?_) | (with_reducible refine below_drewN ?_ _) | (with_reducible refine Below.setCell ?_ ?_ _) | go_size | (refine below_next ?_ (by assumption))))⟩

theorem validElement_l (s : ByteArray) (h0 : 0 < s.size) (hs : s.size ≤ maxLen) (hl : letB (s[0]'h0).toNat = true) (w : World) :
    Calls Tryd.prog 37 #[.string s] w fun e w' => e = .returned (.bool (vElem s)) ∧ Below w.heap.size w w' := by
  have hsx : (s.extract 1 s.size).size ≤ maxLen := by rw [ByteArray.size_extract]; omega
  have hv : vElem s = allB bareP (s.extract 1 s.size) := by unfold vElem; rw [dif_pos h0, if_pos hl]
  have HV := Lib.hid hv
  have HX := Lib.hid hsx
  clear hsx hv
  unfold maxLen at hs
  have hne2 := toList_ne h0
  have hne3 : s.toList.isEmpty = false := by simpa using hne2
  have hi0 : (0 : Int) < (s.size : Int) := by omega
  have hi1 : (1 : Int) ≤ (s.size : Int) := by omega
  have h255 : ((s[0]'h0).toNat : Int) ≤ 255 := by have := (s[0]'h0).toNat_lt; omega
  go_enter Tryd.func37, Tryd.ntmps37
  go_wp2_with fail
  go_quiet (fail)
  have hB : Below w.heap.size w (w.drewN nq) := below_drewN (Below.refl _ _) nq
  generalize w.drewN nq = w2 at hB ⊢
  go_wp2_with (first | (go_at_call 65; refine (isLetter _ _).mono ?_; rintro e w' ⟨rfl, hb⟩; obtain ⟨hc, hf⟩ := bcell hb) | (go_at_call 66; refine (every_any _ _ bareP _ HX.out _ (enters_of Tryd.func88 (by kernel_rfl) rfl) (at_bare _ ⟨#[0, 47, 62]⟩ (by decide) (asc_lit (by decide)))).mono ?_; rintro e w' ⟨rfl, hb2⟩) | go_in)
  go_ret
  exact ⟨ret_bool HV.out.symm, by (repeat' (first | (with_reducible exact Below.refl _ _) | (with_reducible assumption) | (with_reducible refine below_alloc ?_ _) | (with_reducible refine Below.drew ?_) | (with_reducible refine below_drewN ?_ _) | (with_reducible refine Below.setCell ?_ ?_ _) | go_size | (refine below_next ?_ (by assumption))))⟩

theorem validElement_s (s : ByteArray) (h0 : 0 < s.size) (hs : s.size ≤ maxLen) (hl : letB (s[0]'h0).toNat = false) (hst : startB (s[0]'h0).toNat = true) (w : World) :
    Calls Tryd.prog 37 #[.string s] w fun e w' => e = .returned (.bool (vElem s)) ∧ Below w.heap.size w w' := by
  have hsx : (s.extract 1 s.size).size ≤ maxLen := by rw [ByteArray.size_extract]; omega
  have hv : vElem s = allB nameB (s.extract 1 s.size) := by unfold vElem; rw [dif_pos h0, if_neg (by simp [hl]), hst, Bool.true_and]
  have HV := Lib.hid hv
  have HX := Lib.hid hsx
  have HT := Lib.hid hst
  clear hsx hv hst
  unfold maxLen at hs
  have hne2 := toList_ne h0
  have hne3 : s.toList.isEmpty = false := by simpa using hne2
  have hi0 : (0 : Int) < (s.size : Int) := by omega
  have hi1 : (1 : Int) ≤ (s.size : Int) := by omega
  have h255 : ((s[0]'h0).toNat : Int) ≤ 255 := by have := (s[0]'h0).toNat_lt; omega
  go_enter Tryd.func37, Tryd.ntmps37
  go_wp2_with fail
  go_quiet (fail)
  have hB : Below w.heap.size w (w.drewN nq) := below_drewN (Below.refl _ _) nq
  generalize w.drewN nq = w2 at hB ⊢
  have hst := at_starts ((w2.alloc (.cells #[.int .i32 128] 21)).alloc (.cells #[.int .i32 255] 21)) ⟨#[58, 95]⟩ (by decide) (asc_lit (by decide)) 128 255 w2.heap.size (w2.heap.size + 1) (by simp <;> omega) (by simp <;> omega) (by simp [go_sem]) (by simp [go_sem])
  simp only [World.size_alloc] at hst
  have HA := Lib.hid (fun w' hb => hst w' hb _ (by omega) h255)
  clear hst
  go_wp2_with (first | (go_at_call 65; refine (isLetter _ _).mono ?_; rintro e w' ⟨rfl, hb⟩; obtain ⟨hc, hf⟩ := bcell hb) | (go_at_call 85; refine Calls.mono (show Calls Tryd.prog 85 #[_, _] _ _ from HA.out _ hb) ?_; rw [show (memB ⟨#[58, 95]⟩ ((s[0]'h0).toNat : Int) || betB 128 255 ((s[0]'h0).toNat : Int)) = true from HT.out]; rintro e w3 ⟨rfl, hb3⟩; have hb4 := below_next hb hb3; have hz := hb4.size; simp only [World.size_alloc] at hz; have k1 := (hb4.cell (p := ⟨w2.heap.size, 0, none⟩) (by simp <;> omega)).trans (show _ = some (Value.int .i32 128) from by simp [go_sem]); have k2 := (hb4.cell (p := ⟨w2.heap.size + 1, 0, none⟩) (by simp <;> omega)).trans (show _ = some (Value.int .i32 255) from by simp [go_sem])) | (go_at_call 66; refine (every_any _ _ nameB _ HX.out _ (enters_of Tryd.func85 (by kernel_rfl) rfl) (at_names _ ⟨#[45, 46, 58, 95]⟩ (by decide) (asc_lit (by decide)) 128 255 w2.heap.size (w2.heap.size + 1) (by omega) (by omega) k1 k2)).mono ?_; rintro e w5 ⟨rfl, hb5⟩) | go_in)
  go_ret
  exact ⟨ret_bool HV.out.symm, by (repeat' (first | (with_reducible exact Below.refl _ _) | (with_reducible assumption) | (with_reducible refine below_alloc ?_ _) | (with_reducible refine Below.drew ?_) | (with_reducible refine below_drewN ?_ _) | (with_reducible refine Below.setCell ?_ ?_ _) | go_size | (refine below_next ?_ (by assumption))))⟩

theorem validElement_n (s : ByteArray) (h0 : 0 < s.size) (hs : s.size ≤ maxLen) (hl : letB (s[0]'h0).toNat = false) (hst : startB (s[0]'h0).toNat = false) (w : World) :
    Calls Tryd.prog 37 #[.string s] w fun e w' => e = .returned (.bool (vElem s)) ∧ Below w.heap.size w w' := by
  have hv : vElem s = false := by unfold vElem; rw [dif_pos h0, if_neg (by simp [hl]), hst, Bool.false_and]
  have HV := Lib.hid hv
  have HT := Lib.hid hst
  clear hv hst
  unfold maxLen at hs
  have hne2 := toList_ne h0
  have hne3 : s.toList.isEmpty = false := by simpa using hne2
  have hi0 : (0 : Int) < (s.size : Int) := by omega
  have hi1 : (1 : Int) ≤ (s.size : Int) := by omega
  have h255 : ((s[0]'h0).toNat : Int) ≤ 255 := by have := (s[0]'h0).toNat_lt; omega
  go_enter Tryd.func37, Tryd.ntmps37
  go_wp2_with fail
  go_quiet (fail)
  have hB : Below w.heap.size w (w.drewN nq) := below_drewN (Below.refl _ _) nq
  generalize w.drewN nq = w2 at hB ⊢
  have hst := at_starts ((w2.alloc (.cells #[.int .i32 128] 21)).alloc (.cells #[.int .i32 255] 21)) ⟨#[58, 95]⟩ (by decide) (asc_lit (by decide)) 128 255 w2.heap.size (w2.heap.size + 1) (by simp <;> omega) (by simp <;> omega) (by simp [go_sem]) (by simp [go_sem])
  simp only [World.size_alloc] at hst
  have HA := Lib.hid (fun w' hb => hst w' hb _ (by omega) h255)
  clear hst
  go_wp2_with (first | (go_at_call 65; refine (isLetter _ _).mono ?_; rintro e w' ⟨rfl, hb⟩; obtain ⟨hc, hf⟩ := bcell hb) | (go_at_call 85; refine Calls.mono (show Calls Tryd.prog 85 #[_, _] _ _ from HA.out _ hb) ?_; rw [show (memB ⟨#[58, 95]⟩ ((s[0]'h0).toNat : Int) || betB 128 255 ((s[0]'h0).toNat : Int)) = false from HT.out]; rintro e w3 ⟨rfl, hb3⟩; have hb4 := below_next hb hb3; obtain ⟨hc4, hf4⟩ := bcell hb3) | go_in)
  go_ret
  exact ⟨ret_bool HV.out.symm, by (repeat' (first | (with_reducible exact Below.refl _ _) | (with_reducible assumption) | (with_reducible refine below_alloc ?_ _) | (with_reducible refine Below.drew ?_) | (with_reducible refine below_drewN ?_ _) | (with_reducible refine Below.setCell ?_ ?_ _) | go_size | (refine below_next ?_ (by assumption))))⟩

theorem validElement (s : ByteArray) (hs : s.size ≤ maxLen) (w : World) :
    Calls Tryd.prog 37 #[.string s] w fun e w' => e = .returned (.bool (vElem s)) ∧ Below w.heap.size w w' := by
  by_cases h0 : 0 < s.size
  · cases hl : letB (s[0]'h0).toNat with
    | true => exact validElement_l s h0 hs hl w
    | false =>
      cases hst : startB (s[0]'h0).toNat with
      | true => exact validElement_s s h0 hs hl hst w
      | false => exact validElement_n s h0 hs hl hst w
  · exact validElement_e s h0 w
end Go.Proofs.YtheiehbfbgjgpabDoor
