/-
  What brings escaped strings back.
-/
import Derived.Test.YtheiehbfbgjgpabDoorEsf
import Derived.Test.YtheiehbfbgjgpabDoorBeg
import Derived.Test.YtheiehbfbgjgpabDoorRdd
import Derived.Lib.AppendStr
namespace Go.Proofs.YtheiehbfbgjgpabDoor
open Go.RowKit
set_option maxHeartbeats 2000000
set_option maxRecDepth 100000

def bkFr (k : Nat) : List UInt8 := (bkT.getD k ([], [])).1
def bkTo (k : Nat) : List UInt8 := (bkT.getD k ([], [])).2
theorem bkF_step (t : List UInt8) (k : Nat) (hk : k < 5) (a : Nat × List UInt8) : bkF t (bkT.drop k) a = bkF t (bkT.drop (k + 1)) (if (bkFr k).isPrefixOf t then ((bkFr k).length, bkTo k) else a) := by
  have key : ∀ k : Fin 5, bkT.drop k.val = (bkFr k.val, bkTo k.val) :: bkT.drop (k.val + 1) := by decide
  rw [key ⟨k, hk⟩]
  rfl
/-- The two rows of the law's references. -/
structure BkW (B : Nat) (w : World) : Prop where
  cf : ∀ k, k < 5 → w.cell? ⟨B, k, none⟩ = some (.string ⟨(bkFr k).toArray⟩)
  ct : ∀ k, k < 5 → w.cell? ⟨B + 1, k, none⟩ = some (.string ⟨(bkTo k).toArray⟩)
theorem BkW.below {B : Nat} {w w' : World} (h : BkW B w) (hb : Below w.heap.size w w') : BkW B w' := by
  have key : ∀ {a : Addr} {v : Value}, w.cell? a = some v → w'.cell? a = some v := fun {a v} hc => (hb.cell (World.block_lt_of_cell? _ _ hc)).trans hc
  exact ⟨fun k hk => key (h.cf k hk), fun k hk => key (h.ct k hk)⟩

theorem BkW.low {B : Nat} {w w' : World} (h : BkW B w) (hb : Below (B + 2) w w') : BkW B w' :=
  ⟨fun k hk => (hb.cell (p := ⟨B, k, none⟩) (by show B < B + 2; omega)).trans (h.cf k hk), fun k hk => (hb.cell (p := ⟨B + 1, k, none⟩) (by show B + 1 < B + 2; omega)).trans (h.ct k hk)⟩
theorem u8c_str (X : ByteArray) : Lib.strCells X = u8c X.data.toList := rfl

theorem lawBack (s : ByteArray) (hs : s.size ≤ 10000000) (w : World) :
    Calls Tryd.prog 31 #[.string s] w fun e w' => e = .returned (.string ⟨(backL s.data.toList).toArray⟩) ∧ Below w.heap.size w w' := by
  obtain ⟨i0, hi, hz0, hz1, hz2⟩ := info_parts info_u8
  obtain ⟨R, hR⟩ : ∃ R, R = backL s.data.toList := ⟨_, rfl⟩
  rw [← hR]
  have HR := Lib.hid hR
  clear hR
  go_enter Tryd.func31, Tryd.ntmps31
  go_wp2_with fail
  have hBk : BkW w.heap.size ((w.alloc (.cells #[.string ⟨#[38, 97, 109, 112, 59]⟩, .string ⟨#[38, 110, 98, 115, 112, 59]⟩, .string ⟨#[38, 108, 116, 59]⟩, .string ⟨#[38, 103, 116, 59]⟩, .string ⟨#[38, 113, 117, 111, 116, 59]⟩] 9)).alloc (.cells #[.string ⟨#[38]⟩, .string ⟨#[194, 160]⟩, .string ⟨#[60]⟩, .string ⟨#[62]⟩, .string ⟨#[34]⟩] 9)) := by
    constructor
    · intro k hk
      have : k = 0 ∨ k = 1 ∨ k = 2 ∨ k = 3 ∨ k = 4 := by omega
      rcases this with rfl | rfl | rfl | rfl | rfl <;> simp [go_sem, bkFr, bkT]
    · intro k hk
      have : k = 0 ∨ k = 1 ∨ k = 2 ∨ k = 3 ∨ k = 4 := by omega
      rcases this with rfl | rfl | rfl | rfl | rfl <;> simp [go_sem, bkTo, bkT]
  have hB0 : Below w.heap.size w ((w.alloc (.cells #[.string ⟨#[38, 97, 109, 112, 59]⟩, .string ⟨#[38, 110, 98, 115, 112, 59]⟩, .string ⟨#[38, 108, 116, 59]⟩, .string ⟨#[38, 103, 116, 59]⟩, .string ⟨#[38, 113, 117, 111, 116, 59]⟩] 9)).alloc (.cells #[.string ⟨#[38]⟩, .string ⟨#[194, 160]⟩, .string ⟨#[60]⟩, .string ⟨#[62]⟩, .string ⟨#[34]⟩] 9)) := below_alloc (below_alloc (Below.refl _ _) _) _
  have hw1 : w.heap.size + 2 ≤ ((w.alloc (.cells #[.string ⟨#[38, 97, 109, 112, 59]⟩, .string ⟨#[38, 110, 98, 115, 112, 59]⟩, .string ⟨#[38, 108, 116, 59]⟩, .string ⟨#[38, 103, 116, 59]⟩, .string ⟨#[38, 113, 117, 111, 116, 59]⟩] 9)).alloc (.cells #[.string ⟨#[38]⟩, .string ⟨#[194, 160]⟩, .string ⟨#[60]⟩, .string ⟨#[62]⟩, .string ⟨#[34]⟩] 9)).heap.size := by simp
  generalize (w.alloc (.cells #[.string ⟨#[38, 97, 109, 112, 59]⟩, .string ⟨#[38, 110, 98, 115, 112, 59]⟩, .string ⟨#[38, 108, 116, 59]⟩, .string ⟨#[38, 103, 116, 59]⟩, .string ⟨#[38, 113, 117, 111, 116, 59]⟩] 9)).alloc (.cells #[.string ⟨#[38]⟩, .string ⟨#[194, 160]⟩, .string ⟨#[60]⟩, .string ⟨#[62]⟩, .string ⟨#[34]⟩] 9) = w1 at hBk hB0 hw1 ⊢
  go_loopw [5, 6] (fun v i wr => ∃ (k n : Nat) (pre : List UInt8), k ≤ s.size ∧ n ≤ 2 * k ∧ i = .int .i64 k ∧ pre.length = n ∧ pre ++ backL (s.data.toList.drop k) = R ∧ wr.ownsRow w1.heap.size 5 1 v n (u8c pre) ∧ BkW w.heap.size wr ∧ w1.heap.size ≤ wr.heap.size ∧ Below w.heap.size w wr) (fun _ i _ => s.size - (intOf i).toNat)
  case atStart => exact ⟨0, 0, [], Nat.zero_le _, Nat.zero_le _, rfl, rfl, HR.out.symm, World.ownsRow_nil _ _ _ _, hBk, Nat.le_refl _, hB0⟩
  case round =>
    obtain ⟨k, n, pre, hk, hn, rfl, hln, hpre, hown, hbk, hsz, hB⟩ := hrel
    obtain ⟨wo, rfl⟩ : ∃ wo : World, wo = wr := ⟨_, rfl⟩
    have HLN := Lib.hid hln
    have HP := Lib.hid hpre
    clear hln hpre
    by_cases hlt : k < s.size
    · have hI : (k : Int) < (s.size : Int) := by omega
      obtain ⟨t, ht⟩ : ∃ t, t = s.data.toList.drop k := ⟨_, rfl⟩
      have hte : (s.extract k s.size).data.toList = t := by
        rw [ht, Lib.extract_data]
        exact List.take_of_length_le (by rw [List.length_drop, size_list]; omega)
      have htl : t.length = s.size - k := by rw [ht, List.length_drop, size_list]
      have hx0 : (s.extract k (k + 1)).data.toList = t.take 1 := by rw [ht, Lib.extract_data, show k + 1 - k = 1 by omega]
      have htne : t ≠ [] := by intro e; rw [e] at htl; simp at htl; omega
      rw [← ht] at HP
      obtain ⟨b1, b6, b2⟩ := bk_bd t
      have ble := bkN_le t htne
      unfold bkN at ble
      have HTE := Lib.hid hte
      have HT := Lib.hid ht
      have HX0 := Lib.hid hx0
      have HNE := Lib.hid htne
      have HSTEP := Lib.hid (backL_step t htne)
      have HTL := Lib.hid htl
      clear hte ht hx0 htne htl
      go_wp2_with fail
      go_loopw [7, 8, 9] (fun nv x j wq => ∃ (q N : Nat) (X : ByteArray), q ≤ 5 ∧ j = .int .i64 q ∧ nv = .int .i64 N ∧ x = .string X ∧ bkF t (bkT.drop q) (N, X.data.toList) = bk t ∧ BkW w.heap.size wq ∧ wo.heap.size ≤ wq.heap.size ∧ Below wo.heap.size wo wq) (fun _ _ j _ => 5 - (intOf j).toNat)
      case atStart => exact ⟨0, 1, _, Nat.zero_le _, rfl, rfl, rfl, by rw [HX0.out]; rfl, hbk, Nat.le_refl _, Below.refl _ _⟩
      case round =>
        obtain ⟨q, N, X, hq, rfl, rfl, rfl, hbf, hbq, hszq, hBq⟩ := hrel
        have HBF := Lib.hid hbf
        clear hbf
        by_cases hq5 : q < 5
        · have hI5 : (q : Int) < 5 := by omega
          have hcf := hbq.cf q hq5
          have hct := hbq.ct q hq5
          have HST := Lib.hid (bkF_step t q hq5 (N, X.data.toList))
          have HC := Lib.hid (rBegins1 (s.extract k s.size) ⟨(bkFr q).toArray⟩)
          have e : (⟨(bkFr q).toArray⟩ : ByteArray).data.toList = bkFr q := rfl
          rw [HTE.out, e] at HC
          have hfl : (⟨(bkFr q).toArray⟩ : ByteArray).size = (bkFr q).length := by rw [← size_list]
          have HFL := Lib.hid hfl
          clear e hfl
          cases hp : (bkFr q).isPrefixOf t with
          | true =>
            rw [hp] at HC HST
            have HS2 : Hid (bkF t (bkT.drop (q + 1)) ((bkFr q).length, bkTo q) = bk t) := Lib.hid (by rw [← HBF.out, HST.out, if_pos rfl])
            clear hp
            go_wp2_with fail
            go_quiet ((go_at_call 47; exact Calls.quiet_of_same (HC.out _)))
            go_wp2_with fail
            go_quiet (fail)
            go_wp2_with fail
            go_roundw
            case rel => exact ⟨q + 1, (⟨(bkFr q).toArray⟩ : ByteArray).size, ⟨(bkTo q).toArray⟩, by omega, by go_num, rfl, rfl, by rw [HFL.out]; exact HS2.out, hbq.below (by (repeat' (first | (with_reducible exact Below.refl _ _) | (with_reducible assumption) | (with_reducible refine below_alloc ?_ _) | (with_reducible refine Below.drew ?_) | (with_reducible refine below_drewN ?_ _) | (with_reducible refine Below.setCell ?_ ?_ _) | go_size | (refine below_next ?_ (by assumption))))), hszq, by (repeat' (first | (with_reducible exact Below.refl _ _) | (with_reducible assumption) | (with_reducible refine below_alloc ?_ _) | (with_reducible refine Below.drew ?_) | (with_reducible refine below_drewN ?_ _) | (with_reducible refine Below.setCell ?_ ?_ _) | go_size | (refine below_next ?_ (by assumption))))⟩
            case measure => simp [intOf]; omega
          | false =>
            rw [hp] at HC HST
            have HS2 : Hid (bkF t (bkT.drop (q + 1)) (N, X.data.toList) = bk t) := Lib.hid (by rw [← HBF.out, HST.out, if_neg (by simp)])
            clear hp
            go_wp2_with fail
            go_quiet ((go_at_call 47; exact Calls.quiet_of_same (HC.out _)))
            go_wp2_with fail
            go_roundw
            case rel => exact ⟨q + 1, N, X, by omega, by go_num, rfl, rfl, HS2.out, hbq.below (by (repeat' (first | (with_reducible exact Below.refl _ _) | (with_reducible assumption) | (with_reducible refine below_alloc ?_ _) | (with_reducible refine Below.drew ?_) | (with_reducible refine below_drewN ?_ _) | (with_reducible refine Below.setCell ?_ ?_ _) | go_size | (refine below_next ?_ (by assumption))))), hszq, by (repeat' (first | (with_reducible exact Below.refl _ _) | (with_reducible assumption) | (with_reducible refine below_alloc ?_ _) | (with_reducible refine Below.drew ?_) | (with_reducible refine below_drewN ?_ _) | (with_reducible refine Below.setCell ?_ ?_ _) | go_size | (refine below_next ?_ (by assumption))))⟩
            case measure => simp [intOf]; omega
        · have hfin : (N, X.data.toList) = bk t := by
            have := HBF.out
            rw [show q = 5 by omega] at this
            exact this
          have hN : N = (bk t).1 := congrArg Prod.fst hfin
          have hX : X.data.toList = bkX t := congrArg Prod.snd hfin
          have hX2 : X.size ≤ 2 := by rw [← size_list, hX]; exact b2
          have hN1 : 1 ≤ N := by omega
          have hN2 : N ≤ s.size - k := by have := HTL.out; omega
          have HS : Hid (pre ++ X.data.toList ++ backL (s.data.toList.drop (k + N)) = R) := Lib.hid (by
            rw [← HP.out, HSTEP.out, hX, ← List.drop_drop, ← HT.out, hN]
            simp [bkN])
          have ownq := own_below hown hBq
          have hszw : w1.heap.size ≤ wr.heap.size := Nat.le_trans hsz hszq
          have hBw := below_next hB hBq
          have HFN := Lib.hid hN
          clear hfin hN hX hown
          go_wp2_with (first | (at_builtin; refine Lib.wpList_append_own_string _ rfl _ _ 25 9 rfl w1.heap.size 5 i0 Tryd.underlying25 Tryd.underlying9 hi hz0 hz1 hz2 _ _ _ rfl ownq X rfl (by unfold maxLen; omega) (by omega) hszw ?_; intro v' w9 hown' hgrow _))
          have hB9 : Below w1.heap.size wr w9 := Below.grown (Below.refl _ _) hgrow hszw (fun j hj => (ownq.lt j hj).1)
          have hB9' : Below w.heap.size w w9 := hBw.trans (hB9.mono (by omega))
          have hbk9 : BkW w.heap.size w9 := hbq.low (hB9.mono hw1)
          have hsz9 := hB9.size
          have HO : Hid (w9.ownsRow w1.heap.size 5 1 v' (n + X.size) (u8c (pre ++ X.data.toList))) := Lib.hid (by
            have e : u8c (pre ++ X.data.toList) = u8c pre ++ Lib.strCells X := by rw [u8c_str]; simp [u8c]
            rw [e]
            exact hown')
          clear hown' hgrow ownq hB9
          have hm : (pre ++ X.data.toList).length = n + X.size := by rw [List.length_append, HLN.out, size_list]
          have HM := Lib.hid hm
          clear hm
          go_wp2_with fail
          go_roundw
          case rel => exact ⟨k + N, n + X.size, pre ++ X.data.toList, by omega, by omega, by go_num, HM.out, HS.out, HO.out, hbk9, by omega, hB9'⟩
          case measure => simp [intOf]; omega
    · have hl : pre = R := by
        have := HP.out
        rw [drop_end s k (by omega), backL_nil, List.append_nil] at this
        exact this
      have hown2 := hown
      rw [← HLN.out, hl] at hown2
      have hbkk := bytes_back hown2
      clear hown2 hl
      go_wp2
      go_ret
      exact ⟨rfl, hB⟩
end Go.Proofs.YtheiehbfbgjgpabDoor
