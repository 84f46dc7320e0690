/-
  untilClosed, RAWTEXT.
-/
import Derived.Test.YtnfccckodgknjaaGreatDoorY31
import Derived.Deep.LoopGhost
import Derived.Deep.RegionHeld3
namespace Go.Proofs.YtnfccckodgknjaaGreatDoor
open Go.RowKit Go.Shelf Go.Lib
set_option maxHeartbeats 4000000
set_option maxRecDepth 100000

theorem isLess (r : Int) (w : World) : Calls Tryz.prog 114 #[.int .i32 r] w fun e w' => e = .returned (.bool (decide (r = 60))) ∧ Below w.heap.size w w' := by
  go_enter Tryz.func114, Tryz.ntmps114
  go_wp2
  go_ret
  exact ⟨ret_bool (by rw [Bool.eq_iff_iff]; simp), by (repeat' (first | (with_reducible exact Below.refl _ _) | (with_reducible assumption) | (with_reducible refine below_alloc ?_ _) | (with_reducible refine Below.drew ?_) | (with_reducible refine _root_.Go.below_drewN ?_ _) | (with_reducible refine Below.setCell ?_ ?_ _) | go_size | (refine below_next ?_ (by assumption))))⟩
theorem grows_less (w : World) : PredGrows Tryz.prog 114 #[] (fun r => decide ((r : Int) = 60)) w := fun W x _ _ => isLess x W
theorem hi_less : ∀ r : Nat, 128 ≤ r → r ≤ 1114111 → decide ((r : Int) = 60) = false := fun r h _ => decide_eq_false (by omega)
theorem q_less : (qOf fun r => decide ((r : Int) = 60)) = fun b => b == 60 := q_one 60 60 rfl

theorem takeE (b : Nat) (x : Value) (T : TypeId) (s : ByteArray) (k n : Nat) (hk : k + n ≤ s.size) (hs : s.size ≤ 1000000000) (w : World) (h : At w b #[.string s, x] T s k) :
    Calls Tryz.prog 116 #[.pointer (some ⟨b, 0, none⟩), .int .i64 n] w fun e w' => ∃ V : ByteArray, e = .returned (.string V) ∧ V.data.toList = (s.data.toList.drop k).take n ∧ V.size = n ∧ At w' b #[.string s, .int .i64 ((k + n : Nat) : Int)] T s (k + n) ∧ But b w w' := by
  refine (curTake b _ T s k n hk (by unfold maxLen; omega) w h).mono ?_
  rintro e w' ⟨rfl, h1, h2⟩
  exact ⟨_, rfl, ext_take s k n hk, by rw [ByteArray.size_extract]; omega, h1, h2⟩

theorem clip_nat (s : ByteArray) (j : Nat) (h : j ≤ s.size) : clip s (j : Int) = j := by unfold clip; omega
theorem tlS_nat (s : ByteArray) (j : Nat) (h : j ≤ s.size) : tlS s (j : Int) = s.data.toList.drop j := by unfold tlS; rw [clip_nat s j h]

/-- What a step over the cursor in block b keeps. -/
def Stp (b : Nat) (s : ByteArray) (j : Nat) (w w' : World) : Prop := w'.cell? ⟨b, 0, none⟩ = some (.string s) ∧ w'.cell? ⟨b, 1, none⟩ = some (.int .i64 j) ∧ b < w'.heap.size ∧ Below w.heap.size w w'
theorem stp_ended {b : Nat} {c : Array Value} {T : TypeId} {s : ByteArray} {j : Nat} {w : World} (hj : j ≤ s.size) (h : At w b c T s j) (r : Bool) (hr : r = decide (j = s.size)) (w' : World) (hw : Stp b s j w w') :
    Calls Tryz.prog 62 #[.pointer (some ⟨b, 0, none⟩)] w' fun e w2 => e = .returned (.bool r) ∧ w2.cell? ⟨b, 0, none⟩ = some (.string s) ∧ w2.cell? ⟨b, 1, none⟩ = some (.int .i64 j) ∧ b < w2.heap.size ∧ Below w.heap.size w w2 := by
  obtain ⟨y0, y1, y2, y3⟩ := hw
  have hq := h.below y3
  refine (curEnded b c T s j hj w' hq).mono ?_
  rintro e w2 ⟨rfl, hb⟩
  have h2 := hq.below hb
  exact ⟨by rw [hr], h2.cell0, h2.cell1, h2.lt, below_next y3 hb⟩
theorem stp_closes {b : Nat} {c : Array Value} {T : TypeId} {s last : ByteArray} {j : Nat} {w : World} (hj : j ≤ s.size) (hs : s.size ≤ 10000000) (h : At w b c T s j) (q : Bool) (hq : q = closesL last.data.toList (s.data.toList.drop j)) (w' : World) (hw : Stp b s j w w') :
    Calls Tryz.prog 53 #[.string s, .int .i64 j, .string last] w' fun e w2 => e = .returned (.bool q) ∧ w2.cell? ⟨b, 0, none⟩ = some (.string s) ∧ w2.cell? ⟨b, 1, none⟩ = some (.int .i64 j) ∧ b < w2.heap.size ∧ Below w.heap.size w w2 := by
  obtain ⟨y0, y1, y2, y3⟩ := hw
  refine (closesC s j last hs w').mono ?_
  rintro e w2 ⟨rfl, hb⟩
  have h2 := (h.below y3).below hb
  exact ⟨by rw [hq, tlS_nat s j hj], h2.cell0, h2.cell1, h2.lt, below_next y3 hb⟩

theorem untilClosed (b : Nat) (T : TypeId) (s last : ByteArray) (k : Nat) (hk : k ≤ s.size) (hs : s.size ≤ 10000000) (w : World) (h : At w b #[.string s, .int .i64 k] T s k) :
    Calls Tryz.prog 122 #[.pointer (some ⟨b, 0, none⟩), .string last] w fun e w' => ∃ (N : Nat) (V : ByteArray), e = .returned (.string V) ∧ stopL last.data.toList (s.data.toList.drop k) = s.data.toList.drop (k + N) ∧ k + N ≤ s.size ∧ V.data.toList = (s.data.toList.drop k).take N ∧ V.size = N ∧
      At w' b #[.string s, .int .i64 ((k + N : Nat) : Int)] T s (k + N) ∧ But b w w' := by
  have h0 := h.cell0
  have h1 := h.cell1
  have HS := Lib.hid hs
  have hb0 := But.refl b w
  clear hs
  go_enter Tryz.func122, Tryz.ntmps122
  go_wp2_with fail
  go_loopg [] (s.size - k) (fun g wr => ∃ j, g = s.size - j ∧ k ≤ j ∧ j ≤ s.size ∧ stopL last.data.toList (s.data.toList.drop j) = stopL last.data.toList (s.data.toList.drop k) ∧ At wr b #[.string s, .int .i64 j] T s j ∧ But b w wr)
  case atStart => exact ⟨k, rfl, Nat.le_refl _, hk, rfl, h, hb0⟩
  case round =>
    obtain ⟨j, hg, hkj, hj, hst, hat, hbut⟩ := hrel
    clear h0 h1 h
    have HG := Lib.hid hg
    have HST := Lib.hid hst
    have HJ := Lib.hid hj
    have HKJ := Lib.hid hkj
    clear hg hst hkj
    have y0 := hat.cell0
    have y1 := hat.cell1
    have y2 := hat.lt
    have HAT := Lib.hid hat
    by_cases hjs : j = s.size
    · subst hjs
      have HEQ : Hid (∀ n, Calls Tryz.prog 62 #[.pointer (some ⟨b, 0, none⟩)] (wr.drewN n) fun e w2 => e = .returned (.bool true) ∧ ∃ m, w2 = (wr.drewN n).drewN m) := Lib.hid (by
        intro n
        have := curEndedQ b _ T s s.size (wr.drewN n) (HAT.out.same rfl)
        rwa [show decide (s.size = s.size) = true from decide_eq_true rfl] at this)
      have hki : (k : Int) ≤ (s.size : Int) := by have := HKJ.out; omega
      clear hat hj hk hb0
      go_wp2_with fail
      go_quiet ((go_at_call 62; exact Calls.quiet_of (HEQ.out _)))
      go_wp2_with fail
      go_quiet (fail)
      go_wp2_with fail
      go_ret
      have hkj := HKJ.out
      have hst := HST.out
      rw [drop_end s s.size (Nat.le_refl _)] at hst
      refine ⟨s.size - k, s.extract k s.size, rfl, ?_, by omega, ?_, ?_, ?_, ?_⟩
      · rw [← hst, drop_end s _ (by omega)]; rfl
      · rw [ext_drop, List.take_of_length_le (by rw [List.length_drop, size_list]; omega)]
      · rw [ByteArray.size_extract]; omega
      · rw [show k + (s.size - k) = s.size by omega]
        exact HAT.out.same rfl
      · exact hbut.trans (But.of_below (_root_.Go.below_drewN (_root_.Go.below_drewN (Below.refl _ _) _) _))
    · have HE := Lib.hid (stp_ended hj hat false (decide_eq_false hjs).symm)
      obtain ⟨q, hq⟩ : ∃ q, q = closesL last.data.toList (s.data.toList.drop j) := ⟨_, rfl⟩
      have HP := Lib.hid (stp_closes hj HS.out hat q hq)
      have HQ := Lib.hid hq
      have HJS := Lib.hid hjs
      unfold Stp at HE HP
      clear hq hjs hat hj hk hb0
      go_wp2_with fail
      go_region_held3 (fun w' => w'.cell? ⟨b, 0, none⟩ = some (.string s) ∧ w'.cell? ⟨b, 1, none⟩ = some (.int .i64 j) ∧ b < w'.heap.size ∧ Below wr.heap.size wr w')
        (first | exact ⟨y0, y1, y2, Below.drew (Below.refl _ _)⟩ | exact ⟨by assumption, by assumption, by assumption, by assumption⟩ | go_keep)
        (first | (go_at_call 62; refine (HE.out _ (by first | assumption | exact ⟨by assumption, by assumption, by assumption, by first | assumption | exact Below.drew (by assumption)⟩)).mono ?_; rintro e w3 ⟨rfl, c0, c1, c2, c3⟩)
               | (go_at_call 53; refine (HP.out _ (by first | assumption | exact ⟨by assumption, by assumption, by assumption, by first | assumption | exact Below.drew (by assumption)⟩)).mono ?_; rintro e w3 ⟨rfl, c0, c1, c2, c3⟩))
      have hat3 := HAT.out.below c3
      cases q
      · -- it goes on
        have hj1 : j + 1 ≤ s.size := by have := HJ.out; have := HJS.out; omega
        have HT := Lib.hid (takeE b _ T s j 1 hj1 (by have := HS.out; omega) _ hat3)
        clear hat3 hj1
        go_wp2_with fail
        refine HT.out.mono ?_
        rintro e w4 ⟨V, rfl, _, _, h4, hB4⟩
        have hj1 : j + 1 ≤ s.size := by have := HJ.out; have := HJS.out; omega
        have HU := Lib.hid (untilE 114 (fun args w => enters_of Tryz.func114 (by kernel_rfl) rfl args w) (fun r => decide ((r : Int) = 60)) false hi_less _ q_less
          b _ T s (j + 1) hj1 (by have := HS.out; omega) _ (grows_less _) h4)
        clear h4 hj1
        go_wp2_with fail
        refine HU.out.mono ?_
        rintro e w5 ⟨n, V2, hn, hkn, rfl, _, _, h5, hB5⟩
        have HN := Lib.hid hn
        have HKN := Lib.hid hkn
        clear hn hkn
        go_wp2_with fail
        go_roundg (s.size - (j + 1 + n))
        case measure => have := HKN.out; have := HG.out; omega
        case rel =>
          have hkj := HKJ.out
          refine ⟨j + 1 + n, rfl, by omega, HKN.out, ?_, h5, ((hbut.trans (But.of_below c3)).trans hB4).trans hB5⟩
          have hjl : j < s.size := by have := HKN.out; omega
          have hd := drop_byte s j hjl
          have hq := HQ.out
          rw [← HST.out, hd, stopL, if_neg (by rw [← hd, ← hq]; simp), stopL_run _ n (s.data.toList.drop (j + 1)), List.drop_drop]
          intro x hx
          rw [HN.out] at hx
          have := runN_take _ _ x hx
          simpa using this
      · -- the end tag
        have k0 := hat3.cell0
        have k1 := hat3.cell1
        have hkj : (k : Int) ≤ (j : Int) := by have := HKJ.out; omega
        have hjs : (j : Int) ≤ (s.size : Int) := by have := HJ.out; omega
        go_wp2_with fail
        go_quiet (fail)
        go_wp2_with fail
        go_ret
        have hkj := HKJ.out
        have hj := HJ.out
        refine ⟨j - k, s.extract k j, rfl, ?_, by omega, ?_, ?_, ?_, ?_⟩
        · rw [← HST.out, show k + (j - k) = j by omega]
          cases hd : s.data.toList.drop j with
          | nil => rfl
          | cons x t => rw [stopL, if_pos (by rw [← hd, ← HQ.out])]
        · rw [Lib.extract_data]
        · rw [ByteArray.size_extract]; omega
        · rw [show k + (j - k) = j by omega]
          exact hat3.same rfl
        · exact (hbut.trans (But.of_below c3)).trans (But.of_below (_root_.Go.below_drewN (Below.refl _ _) _))
end Go.Proofs.YtnfccckodgknjaaGreatDoor
