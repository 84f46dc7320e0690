/-
  EqualFold.
-/
import Derived.Test.YtnfccckodgknjaaGreatDoorY23
import Derived.Deep.RegionHeld3
import Derived.Deep.DeepCutAuto
namespace Go.Proofs.YtnfccckodgknjaaGreatDoor
open Go.RowKit
set_option maxHeartbeats 1000000
set_option maxRecDepth 100000

def foldB (a b : ByteArray) : Bool := a.data.toList.map lowU == b.data.toList.map lowU

theorem lowU_eq (x y : UInt8) (h : lowZ (x.toNat : Int) = lowZ (y.toNat : Int)) : lowU x = lowU y := by
  apply UInt8.toNat_inj.mp
  have h1 := lowU_toNat x
  have h2 := lowU_toNat y
  omega
theorem lowU_ne (x y : UInt8) (h : ¬ lowZ (x.toNat : Int) = lowZ (y.toNat : Int)) : ¬ lowU x = lowU y := by
  intro e
  have h1 := lowU_toNat x
  have h2 := lowU_toNat y
  rw [e] at h1
  omega
theorem map_at (a : ByteArray) (k : Nat) (h : k < a.size) : (a.data.toList.map lowU)[k]? = some (lowU (a[k]'h)) := by
  rw [List.getElem?_map, Array.getElem?_toList]
  have : a.data[k]? = some (a[k]'h) := Array.getElem?_eq_getElem (xs := a.data) h
  rw [this]; rfl
theorem fold_no (a b : ByteArray) (k : Nat) (ha : k < a.size) (hb : k < b.size) (h : ¬ lowZ ((a[k]'ha).toNat : Int) = lowZ ((b[k]'hb).toNat : Int)) : foldB a b = false := by
  unfold foldB
  rw [beq_eq_false_iff_ne]
  intro e
  have h1 := map_at a k ha
  rw [e, map_at b k hb] at h1
  exact lowU_ne _ _ h (by simpa using h1.symm)
theorem fold_len (a b : ByteArray) (h : ¬ a.size = b.size) : foldB a b = false := by
  unfold foldB
  rw [beq_eq_false_iff_ne]
  intro e
  have := congrArg List.length e
  rw [List.length_map, List.length_map, size_list, size_list] at this
  exact h this
theorem fold_yes (a b : ByteArray) (hz : a.size = b.size) (h : ∀ j (ha : j < a.size) (hb : j < b.size), lowZ ((a[j]'ha).toNat : Int) = lowZ ((b[j]'hb).toNat : Int)) : foldB a b = true := by
  unfold foldB
  rw [beq_iff_eq]
  apply List.ext_getElem?
  intro j
  by_cases hj : j < a.size
  · rw [map_at a j hj, map_at b j (by omega), lowU_eq _ _ (h j hj (by omega))]
  · rw [List.getElem?_eq_none (by rw [List.length_map, size_list]; omega), List.getElem?_eq_none (by rw [List.length_map, size_list]; omega)]

set_option maxHeartbeats 8000000 in
theorem equalFold (a b : ByteArray) (ha : a.size ≤ maxLen) (w : World) :
    Calls Tryz.prog 143 #[.string a, .string b] w fun e w' => e = .returned (.bool (foldB a b)) ∧ Below w.heap.size w w' := by
  unfold maxLen at ha
  by_cases hz : a.size = b.size
  · have hz2 : ((a.size : Int) != (b.size : Int)) = false := by rw [hz]; simp
    have HZ := Lib.hid hz
    go_enter Tryz.func143, Tryz.ntmps143
    go_wp2_with fail
    clear hz hz2
    go_loopw [13] (fun i wr => ∃ k : Nat, k ≤ b.size ∧ i = .int .i64 k ∧ (∀ j (ha : j < a.size) (hb : j < b.size), j < k → lowZ ((a[j]'ha).toNat : Int) = lowZ ((b[j]'hb).toNat : Int)) ∧ Below w.heap.size w wr) (fun i _ => b.size - (intOf i).toNat)
    case atStart => exact ⟨0, Nat.zero_le _, rfl, fun j _ _ h => by omega, Below.refl _ _⟩
    case round =>
      obtain ⟨k, hk, rfl, hall, hB⟩ := hrel
      have HALL := Lib.hid hall
      clear hall
      by_cases hlt : k < b.size
      · have hlta : k < a.size := by have := HZ.out; omega
        have hI1 : (k : Int) < (a.size : Int) := by omega
        have hI2 : (k : Int) < (b.size : Int) := by omega
        have x0 : (0 : Int) ≤ ((a[k]'hlta).toNat : Int) := by omega
        have x1 : ((a[k]'hlta).toNat : Int) ≤ 255 := by have := (a[k]'hlta).toNat_lt; omega
        have y0 : (0 : Int) ≤ ((b[k]'hlt).toNat : Int) := by omega
        have y1 : ((b[k]'hlt).toNat : Int) ≤ 255 := by have := (b[k]'hlt).toNat_lt; omega
        have HLA : Hid (∀ w', Below w.heap.size w w' → Calls Tryz.prog 179 #[.int .u8 ((a[k]'hlta).toNat : Int)] w' fun e w3 => e = .returned (.int .u8 (lowZ ((a[k]'hlta).toNat : Int))) ∧ Below w.heap.size w w3) :=
          Lib.hid (fun w' h => (lowerByte _ x0 x1 w').mono fun e w3 ⟨he, hb⟩ => ⟨he, below_next h hb⟩)
        have HLB : Hid (∀ w', Below w.heap.size w w' → Calls Tryz.prog 179 #[.int .u8 ((b[k]'hlt).toNat : Int)] w' fun e w3 => e = .returned (.int .u8 (lowZ ((b[k]'hlt).toNat : Int))) ∧ Below w.heap.size w w3) :=
          Lib.hid (fun w' h => (lowerByte _ y0 y1 w').mono fun e w3 ⟨he, hb⟩ => ⟨he, below_next h hb⟩)
        have HNO : Hid (¬ lowZ ((a[k]'hlta).toNat : Int) = lowZ ((b[k]'hlt).toNat : Int) → foldB a b = false) := Lib.hid (fold_no a b k hlta hlt)
        have HNX : Hid (lowZ ((a[k]'hlta).toNat : Int) = lowZ ((b[k]'hlt).toNat : Int) → ∀ j (ha : j < a.size) (hb : j < b.size), j < k + 1 → lowZ ((a[j]'ha).toNat : Int) = lowZ ((b[j]'hb).toNat : Int)) := Lib.hid (by
          intro he j ha hb h
          by_cases e : j = k
          · subst e; exact he
          · exact HALL.out j ha hb (by omega))
        obtain ⟨p, hp⟩ : ∃ p, p = lowZ ((a[k]'hlta).toNat : Int) := ⟨_, rfl⟩
        obtain ⟨q, hq⟩ : ∃ q, q = lowZ ((b[k]'hlt).toNat : Int) := ⟨_, rfl⟩
        rw [← hp] at HLA HNO HNX
        rw [← hq] at HLB HNO HNX
        clear hp hq
        go_wp2_with fail
        go_region_held3 (fun w' => Below w.heap.size w w') (first | exact Below.drew hB | assumption | go_keep)
          (first
            | (go_at_call 179; refine (HLA.out _ (by first | assumption | exact Below.drew (by assumption))).mono ?_; rintro e w3 ⟨rfl, hb3⟩)
            | (go_at_call 179; refine (HLB.out _ (by first | assumption | exact Below.drew (by assumption))).mono ?_; rintro e w3 ⟨rfl, hb3⟩))
        all_goals
          cases hpq : (p == q) with
          | true =>
            have hne : (p != q) = false := by simp only [bne, hpq]; rfl
            have HE := Lib.hid (eq_of_beq hpq)
            clear hpq
            go_wp2_with fail
            go_roundw
            case rel => exact ⟨k + 1, by omega, by go_num, HNX.out HE.out, hb3⟩
            case measure => simp [intOf]; omega
          | false =>
            have hne : (p != q) = true := by simp only [bne, hpq]; rfl
            have HE := Lib.hid (HNO.out (ne_of_beq_false hpq))
            clear hpq
            go_wp2_with fail
            go_ret
            exact ⟨ret_bool HE.out.symm, hb3⟩
      · have HY := Lib.hid (fold_yes a b HZ.out (fun j ha hb => HALL.out j ha hb (by have := HZ.out; omega)))
        go_wp2_with fail
        go_ret
        exact ⟨ret_bool HY.out.symm, hB⟩
  · have hz2 : ((a.size : Int) != (b.size : Int)) = true := by
      simp only [bne]
      rw [beq_eq_false_iff_ne.mpr (by omega)]; rfl
    have HF := Lib.hid (fold_len a b hz)
    clear hz
    go_enter Tryz.func143, Tryz.ntmps143
    go_wp2_with fail
    go_ret
    exact ⟨ret_bool HF.out.symm, Below.refl _ _⟩
end Go.Proofs.YtnfccckodgknjaaGreatDoor
