/-
  measure: the length of the first piece of a string.
  encodings: the table, as it is laid.
-/
import Derived.Test.YtnfccckodgknjaaGreatDoorY01
import Derived.Test.YtnfccckodgknjaaGreatDoorProg
import Derived.StillTailTactics
namespace Go.Proofs.YtnfccckodgknjaaGreatDoor
open Go.RowKit
set_option maxHeartbeats 1000000
set_option maxRecDepth 100000

theorem ret_ib {a b : Int} {c d : Bool} (h : a = b) (h2 : c = d) : Ending.returned (.tuple #[.int .i64 a, .bool c]) = .returned (.tuple #[.int .i64 b, .bool d]) := by rw [h, h2]

theorem holds (lo hi b : Int) (w : World) :
    Calls Tryz.prog 233 #[.agg #[.int .u8 lo, .int .u8 hi], .int .u8 b] w fun e w' => e = .returned (.bool (inB lo hi b)) ∧ Below w.heap.size w w' := by
  by_cases c1 : lo ≤ b
  · by_cases c2 : b ≤ hi
    · go_enter Tryz.func233, Tryz.ntmps233
      go_wp2
      go_ret
      exact ⟨ret_bool (by simp [inB, c1, c2]), by (repeat' (first | (with_reducible exact Below.refl _ _) | (with_reducible assumption) | (with_reducible refine below_alloc ?_ _) | (with_reducible refine Below.drew ?_) | (with_reducible refine _root_.Go.below_drewN ?_ _) | (with_reducible refine Below.setCell ?_ ?_ _) | go_size | (refine below_next ?_ (by assumption))))⟩
    · go_enter Tryz.func233, Tryz.ntmps233
      go_wp2
      go_ret
      exact ⟨ret_bool (by simp [inB, c1, c2]), by (repeat' (first | (with_reducible exact Below.refl _ _) | (with_reducible assumption) | (with_reducible refine below_alloc ?_ _) | (with_reducible refine Below.drew ?_) | (with_reducible refine _root_.Go.below_drewN ?_ _) | (with_reducible refine Below.setCell ?_ ?_ _) | go_size | (refine below_next ?_ (by assumption))))⟩
  · go_enter Tryz.func233, Tryz.ntmps233
    go_wp2
    go_ret
    exact ⟨ret_bool (by simp [inB]; omega), by (repeat' (first | (with_reducible exact Below.refl _ _) | (with_reducible assumption) | (with_reducible refine below_alloc ?_ _) | (with_reducible refine Below.drew ?_) | (with_reducible refine _root_.Go.below_drewN ?_ _) | (with_reducible refine Below.setCell ?_ ?_ _) | go_size | (refine below_next ?_ (by assumption))))⟩

theorem measure (s : ByteArray) (hs : s.size ≤ maxLen) (h0 : 0 < s.size) (n T : Nat) (w : World) (hT : TabW n w T) :
    Calls Tryz.prog 202 #[.string s, .slice (some ⟨T, 0, none⟩) 9 9] w fun e w' => e = .returned (.tuple #[.int .i64 (measTab encT (s[0]'h0) (s.data.toList.drop 1)).1, .bool (measTab encT (s[0]'h0) (s.data.toList.drop 1)).2]) ∧ Below w.heap.size w w' := by
  unfold maxLen at hs
  have HT := Lib.hid hT
  clear hT
  go_enter Tryz.func202, Tryz.ntmps202
  go_wp2_with fail
  go_loopw [13] (fun i wr => ∃ k : Nat, k ≤ 9 ∧ i = .int .i64 k ∧ measTab (encT.drop k) (s[0]'h0) (s.data.toList.drop 1) = measTab encT (s[0]'h0) (s.data.toList.drop 1) ∧ Below w.heap.size w wr) (fun i _ => 9 - (intOf i).toNat)
  case atStart => exact ⟨0, by omega, rfl, rfl, Below.refl _ _⟩
  case round =>
    obtain ⟨k, hk, rfl, hm, hB⟩ := hrel
    obtain ⟨wo, rfl⟩ : ∃ wo : World, wo = wr := ⟨_, rfl⟩
    have HM := Lib.hid hm
    clear hm
    by_cases hlt : k < 9
    · have hTr := HT.out.kept hB
      have h1 := hTr.lo k hlt
      have h2 := hTr.hi k hlt
      obtain ⟨a, h3, h4⟩ := hTr.rs k hlt
      have H4 := Lib.hid h4
      obtain ⟨b1, b2, b3, b4, b5⟩ := tLo_bd k hlt
      clear h4 hTr
      go_wp2_with fail
      have k0 : (wo.alloc (.cells #[.int .u8 (tLo k), .int .u8 (tHi k), .slice a (tRest k).length (tRest k).length] 201)).cell? ⟨wo.heap.size, 0, none⟩ = some (.int .u8 (tLo k)) := by simp [go_sem]
      have k1 : (wo.alloc (.cells #[.int .u8 (tLo k), .int .u8 (tHi k), .slice a (tRest k).length (tRest k).length] 201)).cell? ⟨wo.heap.size, 1, none⟩ = some (.int .u8 (tHi k)) := by simp [go_sem]
      have k2 : (wo.alloc (.cells #[.int .u8 (tLo k), .int .u8 (tHi k), .slice a (tRest k).length (tRest k).length] 201)).cell? ⟨wo.heap.size, 2, none⟩ = some (.slice a (tRest k).length (tRest k).length) := by simp [go_sem]
      have hB1 : Below wo.heap.size wo (wo.alloc (.cells #[.int .u8 (tLo k), .int .u8 (tHi k), .slice a (tRest k).length (tRest k).length] 201)) := below_alloc (Below.refl _ _) _
      have hlt1 : wo.heap.size < (wo.alloc (.cells #[.int .u8 (tLo k), .int .u8 (tHi k), .slice a (tRest k).length (tRest k).length] 201)).heap.size := by simp
      generalize wo.alloc (.cells #[.int .u8 (tLo k), .int .u8 (tHi k), .slice a (tRest k).length (tRest k).length] 201) = w1 at k0 k1 k2 hB1 hlt1 ⊢
      generalize wo.heap.size = Bx at k0 k1 k2 hlt1 ⊢
      go_still_tail 4, (by kernel_rfl)
      change wpList _ _ _ _ _ w1.drew
      have j0 : w1.drew.cell? ⟨Bx, 0, none⟩ = some (.int .u8 (tLo k)) := k0
      have j1 : w1.drew.cell? ⟨Bx, 1, none⟩ = some (.int .u8 (tHi k)) := k1
      have j2 : w1.drew.cell? ⟨Bx, 2, none⟩ = some (.slice a (tRest k).length (tRest k).length) := k2
      have hB2 : Below wo.heap.size wo w1.drew := Below.drew hB1
      have hlt2 : Bx < w1.drew.heap.size := hlt1
      clear k0 k1 k2 hB1 hlt1
      generalize w1.drew = w2 at j0 j1 j2 hB2 hlt2 ⊢
      go_wp2_with fail
      refine (holds (tLo k) (tHi k) _ _).mono ?_
      rintro e w3 ⟨rfl, hb3⟩
      have hB3 := below_next hB2 hb3
      have j2' := (hb3.cell (p := ⟨Bx, 2, none⟩) hlt2).trans j2
      have hb3s := hb3.size
      clear j0 j1 j2 hb3 hB2
      cases hin : inB (tLo k) (tHi k) ((s[0]'h0).toNat : Int) with
      | false =>
        have HI := Lib.hid hin
        clear hin
        go_wp2
        go_roundw
        case rel => exact ⟨k + 1, by omega, by go_num, by have := HM.out; rw [drop_enc k hlt] at this; unfold measTab at this; rw [HI.out, if_neg (by simp)] at this; exact this, below_next hB hB3⟩
        case measure => simp [intOf]; omega
      | true =>
        have HI := Lib.hid hin
        clear hin
        have hres : measRest (tRest k) (s.data.toList.drop 1) 1 = measTab encT (s[0]'h0) (s.data.toList.drop 1) := by have := HM.out; rw [drop_enc k hlt] at this; unfold measTab at this; rw [HI.out, if_pos rfl] at this; exact this
        have HRES := Lib.hid hres
        clear hres HM
        clear h1 h2 b1 b2 b3 b4
        obtain ⟨res, hr0⟩ : ∃ res, res = measTab encT (s[0]'h0) (s.data.toList.drop 1) := ⟨_, rfl⟩
        rw [← hr0] at HRES
        have HR0 := Lib.hid hr0
        clear hr0
        generalize tRest k = R at HRES H4 b5 h3 j2' ⊢
        have hltw := Nat.lt_of_lt_of_le hlt2 hb3s
        go_wp2_with fail
        go_loopw [26] (fun i wq => ∃ j : Nat, j ≤ R.length ∧ 1 + j ≤ s.size ∧ i = .int .i64 j ∧ measRest (R.drop j) (s.data.toList.drop (1 + j)) (1 + j) = res ∧ Below wo.heap.size wo wq ∧ wq.cell? ⟨Bx, 2, none⟩ = some (.slice a R.length R.length) ∧ Bx < wq.heap.size) (fun i _ => 9 - (intOf i).toNat)
        case atStart => exact ⟨0, by omega, by omega, rfl, HRES.out, hB3, j2', hltw⟩
        case round =>
          obtain ⟨j, hj, hsz, rfl, hm, hBq, hq2, hqs⟩ := hrel
          have HM := Lib.hid hm
          clear hm
          by_cases hjl : j < R.length
          · obtain ⟨Rb, rfl, h5, h6, _⟩ := H4.out j hjl
            have g5 := (hBq.cell (World.block_lt_of_cell? _ _ h5)).trans h5
            have g6 := (hBq.cell (World.block_lt_of_cell? _ _ h6)).trans h6
            clear h5 h6
            obtain ⟨lo, hlo⟩ : ∃ lo, lo = (R.getD j (0, 0)).1 := ⟨_, rfl⟩
            obtain ⟨hi, hhi⟩ : ∃ hi, hi = (R.getD j (0, 0)).2 := ⟨_, rfl⟩
            rw [← hlo] at g5
            rw [← hhi] at g6
            have HLO := Lib.hid hlo
            have HHI := Lib.hid hhi
            clear hlo hhi
            by_cases hend : 1 + j = s.size
            · have hendB : ((j : Int) + 1 == (s.size : Int)) = true := by simp; omega
              have HE := Lib.hid hend
              clear hend
              go_wp2_with fail
              go_quiet (fail)
              go_wp2_with fail
              go_ret2
              have hfin := HM.out
              rw [drop_end s (1 + j) (by have := HE.out; omega), measRest_end R j _ hjl] at hfin
              rw [← HR0.out, ← hfin]
              exact ⟨ret_ib (by simp; omega) rfl, below_next hB (_root_.Go.below_drewN (below_alloc hBq _) _)⟩
            · have hI : ((j : Int) + 1 == (s.size : Int)) = false := by simp; omega
              have hI2 : (j : Int) + 1 < (s.size : Int) := by omega
              have hI3 : j + 1 < s.size := by omega
              go_wp2_with fail
              have k0 : (wr.alloc (.cells #[.int .u8 lo, .int .u8 hi] 198)).cell? ⟨wr.heap.size, 0, none⟩ = some (.int .u8 lo) := by simp [go_sem]
              have k1 : (wr.alloc (.cells #[.int .u8 lo, .int .u8 hi] 198)).cell? ⟨wr.heap.size, 1, none⟩ = some (.int .u8 hi) := by simp [go_sem]
              have hB1 : Below wo.heap.size wo (wr.alloc (.cells #[.int .u8 lo, .int .u8 hi] 198)) := below_alloc hBq _
              have hq3 : (wr.alloc (.cells #[.int .u8 lo, .int .u8 hi] 198)).cell? ⟨Bx, 2, none⟩ = some (.slice (some ⟨Rb, 0, none⟩) R.length R.length) := by rw [World.cell?_alloc_past _ _ _ hqs]; exact hq2
              have hq4 : Bx < (wr.alloc (.cells #[.int .u8 lo, .int .u8 hi] 198)).heap.size := by simp; omega
              clear hq2 g5 g6
              generalize wr.alloc (.cells #[.int .u8 lo, .int .u8 hi] 198) = w4 at k0 k1 hB1 hq3 hq4 ⊢
              generalize wr.heap.size = By at k0 k1 ⊢
              have hI4 : (0 : Int) ≤ (j : Int) + 1 := by omega
              have hI5 : ((j : Int) + 1).toNat = j + 1 := by omega
              go_still_tail 9, (by kernel_rfl)
              change wpList _ _ _ _ _ w4.drew
              have hB2 : Below wo.heap.size wo w4.drew := Below.drew hB1
              have hq5 : w4.drew.cell? ⟨Bx, 2, none⟩ = some (.slice (some ⟨Rb, 0, none⟩) R.length R.length) := hq3
              have hq6 : Bx < w4.drew.heap.size := hq4
              clear k0 k1 hB1 hq3 hq4
              generalize w4.drew = w5 at hB2 hq5 hq6 ⊢
              go_wp2_with fail
              refine (holds lo hi _ _).mono ?_
              rintro e w6 ⟨rfl, hb6⟩
              have hB6 := below_next hB2 hb6
              have hq7 := (hb6.cell (p := ⟨Bx, 2, none⟩) hq6).trans hq5
              have hq8 := Nat.lt_of_lt_of_le hq6 hb6.size
              have hfin := HM.out
              rw [drop_byte s (1 + j) (by omega)] at hfin
              have eb : s[1 + j]'(by omega) = s[j + 1]'hI3 := by congr 1; omega
              rw [eb] at hfin
              cases hin : inB lo hi ((s[j + 1]'hI3).toNat : Int) with
              | false =>
                have hin' := hin
                rw [HLO.out, HHI.out] at hin'
                rw [measRest_no R j _ hjl _ _ hin'] at hfin
                have HF := Lib.hid hfin
                clear hfin hin'
                go_wp2_with fail
                go_ret2
                rw [← HR0.out, ← HF.out]
                exact ⟨ret_ib (by simp; omega) rfl, below_next hB hB6⟩
              | true =>
                have hin' := hin
                rw [HLO.out, HHI.out] at hin'
                rw [measRest_yes R j _ hjl _ _ hin'] at hfin
                have HF := Lib.hid hfin
                clear hfin hin'
                go_wp2_with fail
                go_roundw
                case rel => exact ⟨j + 1, by omega, by omega, by go_num, by rw [show 1 + (j + 1) = 1 + j + 1 by omega]; exact HF.out, hB6, hq7, hq8⟩
                case measure => simp [intOf]; omega
          · have hfin := HM.out
            rw [measRest_done R j _ _ hjl] at hfin
            have HF := Lib.hid hfin
            clear hfin
            have hjj : j = R.length := by omega
            have HJ := Lib.hid hjj
            clear hjj
            go_wp2_with fail
            go_ret2
            rw [← HR0.out, ← HF.out]
            exact ⟨ret_ib (by have := HJ.out; simp; omega) rfl, below_next hB hBq⟩
    · have hfin := HM.out
      have hk9 : k = 9 := by omega
      subst hk9
      have HF := Lib.hid hfin
      clear hfin
      go_wp2_with fail
      go_ret2
      rw [← HF.out]
      exact ⟨ret_ib rfl rfl, hB⟩
end Go.Proofs.YtnfccckodgknjaaGreatDoor

namespace Go.Proofs.YtnfccckodgknjaaGreatDoor
open Go.RowKit
set_option maxHeartbeats 2000000
set_option maxRecDepth 100000

theorem nine {k : Nat} (h : k < 9) : k = 0 ∨ k = 1 ∨ k = 2 ∨ k = 3 ∨ k = 4 ∨ k = 5 ∨ k = 6 ∨ k = 7 ∨ k = 8 := by omega

theorem row_new (w : World) (c : Array Value) (t : TypeId) (k : Nat) (h : k = w.heap.size) : RowOf (w.alloc (.cells c t)) k t :=
  ⟨c, (0, 0), by subst h; show (w.heap.push _)[w.heap.size]? = _; simp⟩
theorem row_old (w : World) (o : Obj) (k : Nat) {t : TypeId} (hk : k < w.heap.size) (h : RowOf w k t) : RowOf (w.alloc o) k t := by
  obtain ⟨c, fz, hc⟩ := h
  exact ⟨c, fz, (Below.heap_alloc w o k hk).trans hc⟩

theorem encodings (w : World) :
    Calls Tryz.prog 201 #[] w fun e w' => ∃ T, e = .returned (.slice (some ⟨T, 0, none⟩) 9 9) ∧ TabW w.heap.size w' T ∧ Below w.heap.size w w' := by
  go_enter Tryz.func201, Tryz.ntmps201
  go_wp2_with fail
  go_ret
  refine ⟨_, rfl, ?_, by (repeat' (first | (with_reducible exact Below.refl _ _) | (with_reducible assumption) | (with_reducible refine below_alloc ?_ _) | (with_reducible refine Below.drew ?_) | (with_reducible refine _root_.Go.below_drewN ?_ _) | (with_reducible refine Below.setCell ?_ ?_ _) | go_size | (refine below_next ?_ (by assumption))))⟩
  refine ⟨fun k hk => ?_, fun k hk => ?_, fun k hk => ?_, by omega, row_new _ _ _ _ (by simp)⟩
  · rcases nine hk with rfl | rfl | rfl | rfl | rfl | rfl | rfl | rfl | rfl <;> simp [go_sem, tLo, encT]
  · rcases nine hk with rfl | rfl | rfl | rfl | rfl | rfl | rfl | rfl | rfl <;> simp [go_sem, tHi, encT]
  · rcases nine hk with rfl | rfl | rfl | rfl | rfl | rfl | rfl | rfl | rfl
    · exact ⟨none, by simp [go_sem, tRest, encT], fun j hj => absurd hj (by simp [tRest, encT])⟩
    · refine ⟨_, by simp [go_sem, tRest, encT]; rfl, fun j hj => ⟨_, rfl, ?_⟩⟩
      have : j = 0 := by simp [tRest, encT] at hj; omega
      subst this
      exact ⟨by simp [go_sem, tRest, encT], by simp [go_sem, tRest, encT], by omega, (by repeat' (first | (refine row_new _ _ _ _ ?_; simp; done) | (refine row_old _ _ _ ?_ ?_; focus (simp <;> omega))))⟩
    · refine ⟨_, by simp [go_sem, tRest, encT]; rfl, fun j hj => ⟨_, rfl, ?_⟩⟩
      have : j = 0 ∨ j = 1 := by simp [tRest, encT] at hj; omega
      rcases this with rfl | rfl <;> exact ⟨by simp [go_sem, tRest, encT], by simp [go_sem, tRest, encT], by omega, (by repeat' (first | (refine row_new _ _ _ _ ?_; simp; done) | (refine row_old _ _ _ ?_ ?_; focus (simp <;> omega))))⟩
    · refine ⟨_, by simp [go_sem, tRest, encT]; rfl, fun j hj => ⟨_, rfl, ?_⟩⟩
      have : j = 0 ∨ j = 1 := by simp [tRest, encT] at hj; omega
      rcases this with rfl | rfl <;> exact ⟨by simp [go_sem, tRest, encT], by simp [go_sem, tRest, encT], by omega, (by repeat' (first | (refine row_new _ _ _ _ ?_; simp; done) | (refine row_old _ _ _ ?_ ?_; focus (simp <;> omega))))⟩
    · refine ⟨_, by simp [go_sem, tRest, encT]; rfl, fun j hj => ⟨_, rfl, ?_⟩⟩
      have : j = 0 ∨ j = 1 := by simp [tRest, encT] at hj; omega
      rcases this with rfl | rfl <;> exact ⟨by simp [go_sem, tRest, encT], by simp [go_sem, tRest, encT], by omega, (by repeat' (first | (refine row_new _ _ _ _ ?_; simp; done) | (refine row_old _ _ _ ?_ ?_; focus (simp <;> omega))))⟩
    · refine ⟨_, by simp [go_sem, tRest, encT]; rfl, fun j hj => ⟨_, rfl, ?_⟩⟩
      have : j = 0 ∨ j = 1 := by simp [tRest, encT] at hj; omega
      rcases this with rfl | rfl <;> exact ⟨by simp [go_sem, tRest, encT], by simp [go_sem, tRest, encT], by omega, (by repeat' (first | (refine row_new _ _ _ _ ?_; simp; done) | (refine row_old _ _ _ ?_ ?_; focus (simp <;> omega))))⟩
    · refine ⟨_, by simp [go_sem, tRest, encT]; rfl, fun j hj => ⟨_, rfl, ?_⟩⟩
      have : j = 0 ∨ j = 1 ∨ j = 2 := by simp [tRest, encT] at hj; omega
      rcases this with rfl | rfl | rfl <;> exact ⟨by simp [go_sem, tRest, encT], by simp [go_sem, tRest, encT], by omega, (by repeat' (first | (refine row_new _ _ _ _ ?_; simp; done) | (refine row_old _ _ _ ?_ ?_; focus (simp <;> omega))))⟩
    · refine ⟨_, by simp [go_sem, tRest, encT]; rfl, fun j hj => ⟨_, rfl, ?_⟩⟩
      have : j = 0 ∨ j = 1 ∨ j = 2 := by simp [tRest, encT] at hj; omega
      rcases this with rfl | rfl | rfl <;> exact ⟨by simp [go_sem, tRest, encT], by simp [go_sem, tRest, encT], by omega, (by repeat' (first | (refine row_new _ _ _ _ ?_; simp; done) | (refine row_old _ _ _ ?_ ?_; focus (simp <;> omega))))⟩
    · refine ⟨_, by simp [go_sem, tRest, encT]; rfl, fun j hj => ⟨_, rfl, ?_⟩⟩
      have : j = 0 ∨ j = 1 ∨ j = 2 := by simp [tRest, encT] at hj; omega
      rcases this with rfl | rfl | rfl <;> exact ⟨by simp [go_sem, tRest, encT], by simp [go_sem, tRest, encT], by omega, (by repeat' (first | (refine row_new _ _ _ _ ?_; simp; done) | (refine row_old _ _ _ ?_ ?_; focus (simp <;> omega))))⟩
end Go.Proofs.YtnfccckodgknjaaGreatDoor
