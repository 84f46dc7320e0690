/-
  Lower: every byte in lower case.
-/
import Derived.Test.YtnfccckodgknjaaGreatDoorY05
import Derived.Test.YtnfccckodgknjaaGreatDoorY04
import Derived.Laws.IdiomStrings
import Derived.PlainAid
namespace Go.Proofs.YtnfccckodgknjaaGreatDoor
open Go.RowKit Go.PlainAid
set_option maxHeartbeats 1000000

theorem lowerByte (b : Int) (h0 : 0 ≤ b) (h1 : b ≤ 255) (w : World) : Calls Tryz.prog 179 #[.int .u8 b] w fun e w' => e = .returned (.int .u8 (lowZ b)) ∧ Below w.heap.size w w' := by
  cases hu : upB b with
  | true =>
    have hz : lowZ b = b + 32 := by unfold lowZ; rw [hu, if_pos rfl]
    have hr : 65 ≤ b ∧ b ≤ 90 := by simpa [upB] using hu
    have HZ := Lib.hid hz
    clear hz
    obtain ⟨g1, g2⟩ := hr
    go_enter Tryz.func179, Tryz.ntmps179
    go_wp2_with (go_at_call 139; refine (isUpper _ _).mono ?_; rintro e w' ⟨rfl, hb⟩)
    go_ret
    exact ⟨ret_int (by rw [HZ.out]; omega), by (repeat' (first | (with_reducible exact Below.refl _ _) | (with_reducible assumption) | (with_reducible refine below_alloc ?_ _) | (with_reducible refine Below.drew ?_) | (with_reducible refine _root_.Go.below_drewN ?_ _) | (with_reducible refine Below.setCell ?_ ?_ _) | go_size | (refine below_next ?_ (by assumption))))⟩
  | false =>
    have hz : lowZ b = b := by unfold lowZ; rw [hu, if_neg (by simp)]
    have HZ := Lib.hid hz
    clear hz
    go_enter Tryz.func179, Tryz.ntmps179
    go_wp2_with (go_at_call 139; refine (isUpper _ _).mono ?_; rintro e w' ⟨rfl, hb⟩)
    go_ret
    exact ⟨ret_int (by rw [HZ.out]), by (repeat' (first | (with_reducible exact Below.refl _ _) | (with_reducible assumption) | (with_reducible refine below_alloc ?_ _) | (with_reducible refine Below.drew ?_) | (with_reducible refine _root_.Go.below_drewN ?_ _) | (with_reducible refine Below.setCell ?_ ?_ _) | go_size | (refine below_next ?_ (by assumption))))⟩

/-- A byte in lower case. -/
def lowU (b : UInt8) : UInt8 := UInt8.ofNat (lowZ b.toNat).toNat
theorem lowU_toNat (b : UInt8) : ((lowU b).toNat : Int) = lowZ b.toNat := by
  have h0 := lowZ_lo (b := (b.toNat : Int)) (by omega)
  have h1 := lowZ_hi (b := (b.toNat : Int)) (by have := b.toNat_lt; omega)
  unfold lowU
  simp
  omega
def lowS (s : ByteArray) : ByteArray := ⟨(s.data.toList.map lowU).toArray⟩
theorem lowS_size (s : ByteArray) : (lowS s).size = s.size := by
  show (s.data.toList.map lowU).toArray.size = s.data.size
  simp

theorem bt_get (s : ByteArray) (j : Nat) (h : j < s.size) : bt s j = ((s[j]'h).toNat : Int) := by unfold bt; rw [dif_pos h]

/-- What the row holds when k bytes are done. -/
def lowAt (s : ByteArray) (k j : Nat) : Int := if j < k then lowZ (bt s j) else bt s j

/-- Block b holds n bytes, f j at place j, and none of them is frozen. -/
structure RowU (w : World) (b n : Nat) (f : Nat → Int) : Prop where
  cell : ∀ j, j < n → w.cell? ⟨b, j, none⟩ = some (.int .u8 (f j))
  free : ∀ j, j < n → w.frozen? ⟨b, j, none⟩ = false
  lt : b < w.heap.size

theorem RowU.kept {w w' : World} {b n : Nat} {f : Nat → Int} (h : RowU w b n f) (hb : Below w.heap.size w w') : RowU w' b n f :=
  ⟨fun j hj => (hb.cell (p := ⟨b, j, none⟩) h.lt).trans (h.cell j hj), fun j hj => (hb.frozen (p := ⟨b, j, none⟩) h.lt).trans (h.free j hj), Nat.lt_of_lt_of_le h.lt hb.size⟩

theorem RowU.set {w : World} {b n : Nat} {f g : Nat → Int} (h : RowU w b n f) {k : Nat} {v : Int} (hk : k < n) (hv : g k = v) (hg : ∀ j, j < n → j ≠ k → g j = f j) : RowU (w.setCell ⟨b, k, none⟩ (.int .u8 v)) b n g := by
  refine ⟨fun j hj => ?_, fun j hj => by rw [World.frozen?_setCell]; exact h.free j hj, by rw [World.size_setCell]; exact h.lt⟩
  by_cases e : j = k
  · subst e
    rw [World.cell?_setCell_same (h := h.cell j hj), hv]
  · rw [World.cell?_setCell_other (h := by intro e2; injection e2 with _ e3; exact e e3.symm), h.cell j hj, hg j hj e]

theorem RowU.ofBytes (w : World) (s : ByteArray) (cap : Nat) (t : TypeId) : RowU (w.alloc (.cells (bytesRow s cap) t ((bytesRow s cap).size, (bytesRow s cap).size + 1))).drew w.heap.size s.size (bt s) := by
  refine ⟨fun j hj => ?_, fun j hj => ?_, by simp⟩
  · show (w.alloc _).cell? _ = _
    rw [World.cell?_alloc_mark, bytesRow_at s cap j hj, bt_get s j hj]
    rfl
  · show (w.alloc _).frozen? _ = _
    rw [World.frozen?_alloc_mark]
    have : s.size ≤ (bytesRow s cap).size := by unfold bytesRow; have : s.data.size = s.size := rfl; simp [this]
    simp
    omega

theorem lower (s : ByteArray) (hs : s.size ≤ maxLen) (w : World) :
    Calls Tryz.prog 112 #[.string s] w fun e w' => e = .returned (.string (lowS s)) ∧ Below w.heap.size w w' := by
  unfold maxLen at hs
  have hconv := run_bytes_of_string (P := Tryz.prog) w 9 75 5 s Tryz.underlying9 Tryz.underlying75 Tryz.underlying5
  have HR := Lib.hid (RowU.ofBytes w s (grownCap w s.size 0 5) 5)
  go_enter Tryz.func112, Tryz.ntmps112
  go_wp2_with fail
  clear hconv
  have hB : Below w.heap.size w (w.alloc (.cells (bytesRow s (grownCap w s.size 0 5)) 5 ((bytesRow s (grownCap w s.size 0 5)).size, (bytesRow s (grownCap w s.size 0 5)).size + 1))).drew := Below.drew (below_alloc (Below.refl _ _) _)
  generalize (w.alloc (.cells (bytesRow s (grownCap w s.size 0 5)) 5 ((bytesRow s (grownCap w s.size 0 5)).size, (bytesRow s (grownCap w s.size 0 5)).size + 1))).drew = W0 at hB HR ⊢
  generalize grownCap w s.size 0 5 = cap
  go_loopw [10] (fun i wr => ∃ k : Nat, k ≤ s.size ∧ i = .int .i64 k ∧ RowU wr w.heap.size s.size (lowAt s k) ∧ Below w.heap.size w wr) (fun i _ => s.size - (intOf i).toNat)
  case atStart => exact ⟨0, Nat.zero_le _, rfl, HR.out, hB⟩
  case round =>
    obtain ⟨k, hk, rfl, hR, hBr⟩ := hrel
    by_cases hlt : k < s.size
    · have hc : wr.cell? ⟨w.heap.size, k, none⟩ = some (.int .u8 (bt s k)) := by rw [hR.cell k hlt]; simp [lowAt]
      have hb0 := bt_nonneg s k
      have hb1 := bt_le s k
      have HRr := Lib.hid hR
      clear hR
      go_wp2_with fail
      refine (lowerByte _ hb0 hb1 _).mono ?_
      rintro e w' ⟨rfl, hb⟩
      have hR' := HRr.out.kept hb
      have hc' := hR'.cell k hlt
      have hf' := hR'.free k hlt
      have HR' := Lib.hid hR'
      have hB' := below_next hBr hb
      clear hR'
      go_wp2
      go_roundw
      case rel => exact ⟨k + 1, by omega, by go_num, HR'.out.set hlt (by simp [lowAt]) (fun j _ hj => by unfold lowAt; by_cases h : j < k <;> simp [h] <;> omega), hB'.setCell (Nat.le_refl _) _⟩
      case measure => simp [intOf]; omega
    · have : k = s.size := by omega
      subst this
      have hbk := run_convert_bytes_back (P := Tryz.prog) wr 75 9 5 ⟨w.heap.size, 0, none⟩ cap (s.data.toList.map lowU) Tryz.underlying75 Tryz.underlying5 Tryz.underlying9 (fun j hj => by
        have hj' : j < s.size := by simpa using hj
        have e : (⟨w.heap.size, 0, none⟩ : Addr).add j = ⟨w.heap.size, j, none⟩ := by unfold Addr.add; split <;> simp_all
        rw [e, hR.cell j hj', List.getElem_map, lowU_toNat]
        simp only [lowAt, hj', if_true, bt_get s j hj']
        rfl)
      rw [show (s.data.toList.map lowU).length = s.size from by rw [List.length_map, Array.length_toList]; rfl] at hbk
      clear hR
      go_wp2
      go_ret
      exact ⟨rfl, hBr⟩
end Go.Proofs.YtnfccckodgknjaaGreatDoor
