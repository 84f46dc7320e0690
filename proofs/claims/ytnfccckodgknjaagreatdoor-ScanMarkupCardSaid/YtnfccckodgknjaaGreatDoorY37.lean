/-
  untilClosed, RAWTEXT.
  Reference: named and numeric.
  Reference: by name.
  Reference.
-/
import Derived.Test.YtnfccckodgknjaaGreatDoorY31
import Derived.Deep.LoopGhost
import Derived.Deep.RegionHeld3
import Derived.Test.YtnfccckodgknjaaGreatDoorY35
import Derived.Test.YtnfccckodgknjaaGreatDoorY21
import Derived.Test.YtnfccckodgknjaaGreatDoorY23
namespace Go.Proofs.YtnfccckodgknjaaGreatDoor
open Go.RowKit Go.Shelf Go.Lib
set_option maxHeartbeats 4000000
set_option maxRecDepth 100000

theorem isLess (r : Int) (w : World) : Calls Tryz.prog 114 #[.int .i32 r] w fun e w' => e = .returned (.bool (decide (r = 60))) ∧ Below w.heap.size w w' := by
  go_enter Tryz.func114, Tryz.ntmps114
  go_wp2
  go_ret
  exact ⟨ret_bool (by rw [Bool.eq_iff_iff]; simp), by (repeat' (first | (with_reducible exact Below.refl _ _) | (with_reducible assumption) | (with_reducible refine below_alloc ?_ _) | (with_reducible refine Below.drew ?_) | (with_reducible refine _root_.Go.below_drewN ?_ _) | (with_reducible refine Below.setCell ?_ ?_ _) | go_size | (refine below_next ?_ (by assumption))))⟩
theorem grows_less (w : World) : PredGrows Tryz.prog 114 #[] (fun r => decide ((r : Int) = 60)) w := fun W x _ _ => isLess x W
theorem hi_less : ∀ r : Nat, 128 ≤ r → r ≤ 1114111 → decide ((r : Int) = 60) = false := fun r h _ => decide_eq_false (by omega)
theorem q_less : (qOf fun r => decide ((r : Int) = 60)) = fun b => b == 60 := q_one 60 60 rfl

theorem takeE (b : Nat) (x : Value) (T : TypeId) (s : ByteArray) (k n : Nat) (hk : k + n ≤ s.size) (hs : s.size ≤ 1000000000) (w : World) (h : At w b #[.string s, x] T s k) :
    Calls Tryz.prog 116 #[.pointer (some ⟨b, 0, none⟩), .int .i64 n] w fun e w' => ∃ V : ByteArray, e = .returned (.string V) ∧ V.data.toList = (s.data.toList.drop k).take n ∧ V.size = n ∧ At w' b #[.string s, .int .i64 ((k + n : Nat) : Int)] T s (k + n) ∧ But b w w' := by
  refine (curTake b _ T s k n hk (by unfold maxLen; omega) w h).mono ?_
  rintro e w' ⟨rfl, h1, h2⟩
  exact ⟨_, rfl, ext_take s k n hk, by rw [ByteArray.size_extract]; omega, h1, h2⟩

theorem clip_nat (s : ByteArray) (j : Nat) (h : j ≤ s.size) : clip s (j : Int) = j := by unfold clip; omega
theorem tlS_nat (s : ByteArray) (j : Nat) (h : j ≤ s.size) : tlS s (j : Int) = s.data.toList.drop j := by unfold tlS; rw [clip_nat s j h]

/-- What a step over the cursor in block b keeps. -/
def Stp (b : Nat) (s : ByteArray) (j : Nat) (w w' : World) : Prop := w'.cell? ⟨b, 0, none⟩ = some (.string s) ∧ w'.cell? ⟨b, 1, none⟩ = some (.int .i64 j) ∧ b < w'.heap.size ∧ Below w.heap.size w w'
theorem stp_ended {b : Nat} {c : Array Value} {T : TypeId} {s : ByteArray} {j : Nat} {w : World} (hj : j ≤ s.size) (h : At w b c T s j) (r : Bool) (hr : r = decide (j = s.size)) (w' : World) (hw : Stp b s j w w') :
    Calls Tryz.prog 62 #[.pointer (some ⟨b, 0, none⟩)] w' fun e w2 => e = .returned (.bool r) ∧ w2.cell? ⟨b, 0, none⟩ = some (.string s) ∧ w2.cell? ⟨b, 1, none⟩ = some (.int .i64 j) ∧ b < w2.heap.size ∧ Below w.heap.size w w2 := by
  obtain ⟨y0, y1, y2, y3⟩ := hw
  have hq := h.below y3
  refine (curEnded b c T s j hj w' hq).mono ?_
  rintro e w2 ⟨rfl, hb⟩
  have h2 := hq.below hb
  exact ⟨by rw [hr], h2.cell0, h2.cell1, h2.lt, below_next y3 hb⟩
theorem stp_closes {b : Nat} {c : Array Value} {T : TypeId} {s last : ByteArray} {j : Nat} {w : World} (hj : j ≤ s.size) (hs : s.size ≤ 10000000) (h : At w b c T s j) (q : Bool) (hq : q = closesL last.data.toList (s.data.toList.drop j)) (w' : World) (hw : Stp b s j w w') :
    Calls Tryz.prog 53 #[.string s, .int .i64 j, .string last] w' fun e w2 => e = .returned (.bool q) ∧ w2.cell? ⟨b, 0, none⟩ = some (.string s) ∧ w2.cell? ⟨b, 1, none⟩ = some (.int .i64 j) ∧ b < w2.heap.size ∧ Below w.heap.size w w2 := by
  obtain ⟨y0, y1, y2, y3⟩ := hw
  refine (closesC s j last hs w').mono ?_
  rintro e w2 ⟨rfl, hb⟩
  have h2 := (h.below y3).below hb
  exact ⟨by rw [hq, tlS_nat s j hj], h2.cell0, h2.cell1, h2.lt, below_next y3 hb⟩

theorem untilClosed (b : Nat) (T : TypeId) (s last : ByteArray) (k : Nat) (hk : k ≤ s.size) (hs : s.size ≤ 10000000) (w : World) (h : At w b #[.string s, .int .i64 k] T s k) :
    Calls Tryz.prog 122 #[.pointer (some ⟨b, 0, none⟩), .string last] w fun e w' => ∃ (N : Nat) (V : ByteArray), e = .returned (.string V) ∧ stopL last.data.toList (s.data.toList.drop k) = s.data.toList.drop (k + N) ∧ k + N ≤ s.size ∧ V.data.toList = (s.data.toList.drop k).take N ∧ V.size = N ∧
      At w' b #[.string s, .int .i64 ((k + N : Nat) : Int)] T s (k + N) ∧ But b w w' := by
  have h0 := h.cell0
  have h1 := h.cell1
  have HS := Lib.hid hs
  have hb0 := But.refl b w
  clear hs
  go_enter Tryz.func122, Tryz.ntmps122
  go_wp2_with fail
  go_loopg [] (s.size - k) (fun g wr => ∃ j, g = s.size - j ∧ k ≤ j ∧ j ≤ s.size ∧ stopL last.data.toList (s.data.toList.drop j) = stopL last.data.toList (s.data.toList.drop k) ∧ At wr b #[.string s, .int .i64 j] T s j ∧ But b w wr)
  case atStart => exact ⟨k, rfl, Nat.le_refl _, hk, rfl, h, hb0⟩
  case round =>
    obtain ⟨j, hg, hkj, hj, hst, hat, hbut⟩ := hrel
    clear h0 h1 h
    have HG := Lib.hid hg
    have HST := Lib.hid hst
    have HJ := Lib.hid hj
    have HKJ := Lib.hid hkj
    clear hg hst hkj
    have y0 := hat.cell0
    have y1 := hat.cell1
    have y2 := hat.lt
    have HAT := Lib.hid hat
    by_cases hjs : j = s.size
    · subst hjs
      have HEQ : Hid (∀ n, Calls Tryz.prog 62 #[.pointer (some ⟨b, 0, none⟩)] (wr.drewN n) fun e w2 => e = .returned (.bool true) ∧ ∃ m, w2 = (wr.drewN n).drewN m) := Lib.hid (by
        intro n
        have := curEndedQ b _ T s s.size (wr.drewN n) (HAT.out.same rfl)
        rwa [show decide (s.size = s.size) = true from decide_eq_true rfl] at this)
      have hki : (k : Int) ≤ (s.size : Int) := by have := HKJ.out; omega
      clear hat hj hk hb0
      go_wp2_with fail
      go_quiet ((go_at_call 62; exact Calls.quiet_of (HEQ.out _)))
      go_wp2_with fail
      go_quiet (fail)
      go_wp2_with fail
      go_ret
      have hkj := HKJ.out
      have hst := HST.out
      rw [drop_end s s.size (Nat.le_refl _)] at hst
      refine ⟨s.size - k, s.extract k s.size, rfl, ?_, by omega, ?_, ?_, ?_, ?_⟩
      · rw [← hst, drop_end s _ (by omega)]; rfl
      · rw [ext_drop, List.take_of_length_le (by rw [List.length_drop, size_list]; omega)]
      · rw [ByteArray.size_extract]; omega
      · rw [show k + (s.size - k) = s.size by omega]
        exact HAT.out.same rfl
      · exact hbut.trans (But.of_below (_root_.Go.below_drewN (_root_.Go.below_drewN (Below.refl _ _) _) _))
    · have HE := Lib.hid (stp_ended hj hat false (decide_eq_false hjs).symm)
      obtain ⟨q, hq⟩ : ∃ q, q = closesL last.data.toList (s.data.toList.drop j) := ⟨_, rfl⟩
      have HP := Lib.hid (stp_closes hj HS.out hat q hq)
      have HQ := Lib.hid hq
      have HJS := Lib.hid hjs
      unfold Stp at HE HP
      clear hq hjs hat hj hk hb0
      go_wp2_with fail
      go_region_held3 (fun w' => w'.cell? ⟨b, 0, none⟩ = some (.string s) ∧ w'.cell? ⟨b, 1, none⟩ = some (.int .i64 j) ∧ b < w'.heap.size ∧ Below wr.heap.size wr w')
        (first | exact ⟨y0, y1, y2, Below.drew (Below.refl _ _)⟩ | exact ⟨by assumption, by assumption, by assumption, by assumption⟩ | go_keep)
        (first | (go_at_call 62; refine (HE.out _ (by first | assumption | exact ⟨by assumption, by assumption, by assumption, by first | assumption | exact Below.drew (by assumption)⟩)).mono ?_; rintro e w3 ⟨rfl, c0, c1, c2, c3⟩)
               | (go_at_call 53; refine (HP.out _ (by first | assumption | exact ⟨by assumption, by assumption, by assumption, by first | assumption | exact Below.drew (by assumption)⟩)).mono ?_; rintro e w3 ⟨rfl, c0, c1, c2, c3⟩))
      have hat3 := HAT.out.below c3
      cases q
      · -- it goes on
        have hj1 : j + 1 ≤ s.size := by have := HJ.out; have := HJS.out; omega
        have HT := Lib.hid (takeE b _ T s j 1 hj1 (by have := HS.out; omega) _ hat3)
        clear hat3 hj1
        go_wp2_with fail
        refine HT.out.mono ?_
        rintro e w4 ⟨V, rfl, _, _, h4, hB4⟩
        have hj1 : j + 1 ≤ s.size := by have := HJ.out; have := HJS.out; omega
        have HU := Lib.hid (untilE 114 (fun args w => enters_of Tryz.func114 (by kernel_rfl) rfl args w) (fun r => decide ((r : Int) = 60)) false hi_less _ q_less
          b _ T s (j + 1) hj1 (by have := HS.out; omega) _ (grows_less _) h4)
        clear h4 hj1
        go_wp2_with fail
        refine HU.out.mono ?_
        rintro e w5 ⟨n, V2, hn, hkn, rfl, _, _, h5, hB5⟩
        have HN := Lib.hid hn
        have HKN := Lib.hid hkn
        clear hn hkn
        go_wp2_with fail
        go_roundg (s.size - (j + 1 + n))
        case measure => have := HKN.out; have := HG.out; omega
        case rel =>
          have hkj := HKJ.out
          refine ⟨j + 1 + n, rfl, by omega, HKN.out, ?_, h5, ((hbut.trans (But.of_below c3)).trans hB4).trans hB5⟩
          have hjl : j < s.size := by have := HKN.out; omega
          have hd := drop_byte s j hjl
          have hq := HQ.out
          rw [← HST.out, hd, stopL, if_neg (by rw [← hd, ← hq]; simp), stopL_run _ n (s.data.toList.drop (j + 1)), List.drop_drop]
          intro x hx
          rw [HN.out] at hx
          have := runN_take _ _ x hx
          simpa using this
      · -- the end tag
        have k0 := hat3.cell0
        have k1 := hat3.cell1
        have hkj : (k : Int) ≤ (j : Int) := by have := HKJ.out; omega
        have hjs : (j : Int) ≤ (s.size : Int) := by have := HJ.out; omega
        go_wp2_with fail
        go_quiet (fail)
        go_wp2_with fail
        go_ret
        have hkj := HKJ.out
        have hj := HJ.out
        refine ⟨j - k, s.extract k j, rfl, ?_, by omega, ?_, ?_, ?_, ?_⟩
        · rw [← HST.out, show k + (j - k) = j by omega]
          cases hd : s.data.toList.drop j with
          | nil => rfl
          | cons x t => rw [stopL, if_pos (by rw [← hd, ← HQ.out])]
        · rw [Lib.extract_data]
        · rw [ByteArray.size_extract]; omega
        · rw [show k + (j - k) = j by omega]
          exact hat3.same rfl
        · exact (hbut.trans (But.of_below c3)).trans (But.of_below (_root_.Go.below_drewN (Below.refl _ _) _))
end Go.Proofs.YtnfccckodgknjaaGreatDoor

namespace Go.Proofs.YtnfccckodgknjaaGreatDoor
open Go.RowKit Go.Shelf Go.Lib
set_option maxHeartbeats 2000000
set_option maxRecDepth 100000

theorem isEquals (r : Int) (w : World) : Calls Tryz.prog 129 #[.int .i32 r] w fun e w' => e = .returned (.bool (decide (r = 61))) ∧ Below w.heap.size w w' := by
  go_enter Tryz.func129, Tryz.ntmps129
  go_wp2
  go_ret
  exact ⟨ret_bool (by rw [Bool.eq_iff_iff]; simp), by (repeat' (first | (with_reducible exact Below.refl _ _) | (with_reducible assumption) | (with_reducible refine below_alloc ?_ _) | (with_reducible refine Below.drew ?_) | (with_reducible refine _root_.Go.below_drewN ?_ _) | (with_reducible refine Below.setCell ?_ ?_ _) | go_size | (refine below_next ?_ (by assumption))))⟩
theorem grows_equals (w : World) : PredGrows Tryz.prog 129 #[] (fun r => decide ((r : Int) = 61)) w := fun W x _ _ => isEquals x W
def hxB (r : Int) : Bool := decide (r = 120) || decide (r = 88)
theorem isHexMark (r : Int) (w : World) : Calls Tryz.prog 173 #[.int .i32 r] w fun e w' => e = .returned (.bool (hxB r)) ∧ Below w.heap.size w w' := by
  have e1 : (r == 120) = decide (r = 120) := by rw [Bool.eq_iff_iff]; simp
  have e2 : (r == 88) = decide (r = 88) := by rw [Bool.eq_iff_iff]; simp
  go_enter Tryz.func173, Tryz.ntmps173
  cases h1 : decide (r = 120) <;> cases h2 : decide (r = 88)
  all_goals
    rw [h1] at e1
    rw [h2] at e2
    go_wp2
    go_ret
    exact ⟨ret_bool (by simp [hxB, h1, h2]), by (repeat' (first | (with_reducible exact Below.refl _ _) | (with_reducible assumption) | (with_reducible refine below_alloc ?_ _) | (with_reducible refine Below.drew ?_) | (with_reducible refine _root_.Go.below_drewN ?_ _) | (with_reducible refine Below.setCell ?_ ?_ _) | go_size | (refine below_next ?_ (by assumption))))⟩
theorem grows_hexMark (w : World) : PredGrows Tryz.prog 173 #[] (fun r => hxB r) w := fun W x _ _ => isHexMark x W
theorem grows_alnum (w : World) : PredGrows Tryz.prog 102 #[] (fun r => alnB r) w := fun W x _ _ => isAlnum x W

theorem blk_but {w w' : World} {b g : Nat} {c : Array Value} {T : TypeId} {s : ByteArray} {k : Nat} {a : Addr} {v : Value} (hat : At w b c T s k) (hb : But b w w') (hg : w.cell? ⟨g, 0, none⟩ ≠ some (.string s)) (ha : a.block = g) (hv : w.cell? a = some v) : w'.cell? a = some v := by
  have hne : g ≠ b := by
    intro e
    subst e
    exact hg hat.cell0
  have hlt : a.block < w.heap.size := World.block_lt_of_cell? _ _ hv
  exact (World.cell?_of_block (w := w) (a := a) (hb.block _ hlt (fun e => hne (by rw [← ha]; cases e; rfl)))).trans hv
theorem ctl_but {w w' : World} {b : Nat} {c : Array Value} {T : TypeId} {s : ByteArray} {k : Nat} (h : CtlW w) (hat : At w b c T s k) (hb : But b w w') : CtlW w' :=
  fun j hj => blk_but hat hb (by rw [h 0 (by omega)]; intro e; injection e with e; injection e) rfl (h j hj)
theorem ml_but {w w' : World} {b g : Nat} {c : Array Value} {T : TypeId} {s : ByteArray} {k : Nat} {m : Int} (h : w.cell? ⟨g, 0, none⟩ = some (.int .i64 m)) (hat : At w b c T s k) (hb : But b w w') : w'.cell? ⟨g, 0, none⟩ = some (.int .i64 m) :=
  blk_but hat hb (by rw [h]; intro e; injection e with e; injection e) rfl h

theorem pre_head (c : UInt8) (t : List UInt8) : [c].isPrefixOf t = true ↔ t.head? = some c := by
  cases t with
  | nil => simp [List.isPrefixOf]
  | cons d r =>
    simp only [List.isPrefixOf, Bool.and_true, beq_iff_eq, List.head?_cons, Option.some.injEq]
    exact ⟨fun h => h.symm, fun h => h.symm⟩
theorem pre_two {a b : UInt8} {s : ByteArray} {j : Nat} (h : [a, b].isPrefixOf (s.data.toList.drop j) = true) : s.data.toList.drop j = a :: b :: s.data.toList.drop (j + 2) := by
  have e : s.data.toList.drop (j + 2) = (s.data.toList.drop j).drop 2 := by rw [List.drop_drop]
  rw [e]
  generalize s.data.toList.drop j = t at h
  rcases t with _ | ⟨x, _ | ⟨y, t⟩⟩ <;> simp [List.isPrefixOf] at h
  obtain ⟨rfl, rfl⟩ := h
  rfl
theorem pre_1 {a : UInt8} {s : ByteArray} {j : Nat} (h : [a].isPrefixOf (s.data.toList.drop j) = true) : s.data.toList.drop j = a :: s.data.toList.drop (j + 1) := by
  have e : s.data.toList.drop (j + 1) = (s.data.toList.drop j).drop 1 := by rw [List.drop_drop]
  rw [e]
  generalize s.data.toList.drop j = t at h
  rcases t with _ | ⟨x, t⟩ <;> simp [List.isPrefixOf] at h
  obtain rfl := h
  rfl
theorem hx_mark (c : UInt8) : hxB c.toNat = hexMark c := by
  unfold hxB hexMark
  have h1 : decide ((c.toNat : Int) = 120) = (c == 120) := by rw [Bool.eq_iff_iff]; simp [← UInt8.toNat_inj]; omega
  have h2 : decide ((c.toNat : Int) = 88) = (c == 88) := by rw [Bool.eq_iff_iff]; simp [← UInt8.toNat_inj]; omega
  rw [h1, h2]

theorem numericC (b : Nat) (T : TypeId) (s : ByteArray) (k : Nat) (hk : k ≤ s.size) (hs : s.size ≤ 10000000) (w : World) (hc : CtlW w) (h : At w b #[.string s, .int .i64 k] T s k) :
    Calls Tryz.prog 104 #[.pointer (some ⟨b, 0, none⟩)] w fun e w' => ∃ (V : ByteArray) (N : Nat), e = .returned (.string V) ∧ V.data.toList = (numericL (s.data.toList.drop k)).1 ∧ N = (numericL (s.data.toList.drop k)).2 ∧ k + N ≤ s.size ∧
      At w' b #[.string s, .int .i64 ((k + N : Nat) : Int)] T s (k + N) ∧ But b w w' := by
  have HS := Lib.hid hs
  have HC := Lib.hid hc
  have HK := Lib.hid hk
  have HSe := Lib.hid (seesE 173 (fun args w => enters_of Tryz.func173 (by kernel_rfl) rfl args w) (fun r => hxB r) b _ T s k hk w (grows_hexMark _) h)
  obtain ⟨q, hq⟩ : ∃ q, q = seesB (fun r => hxB r) (s.data.toList.drop k) := ⟨_, rfl⟩
  rw [← hq] at HSe
  have HQ := Lib.hid hq
  clear hc hq hk hs
  cases q
  · go_enter Tryz.func104, Tryz.ntmps104
    go_wp2_with fail
    refine HSe.out.mono ?_
    rintro e w1 ⟨rfl, hb1⟩
    have h1 := h.below hb1
    have HR := Lib.hid (curRest b _ T s k HK.out w1 h1)
    go_wp2_with fail
    refine HR.out.mono ?_
    rintro e w2 ⟨rfl, hb2⟩
    have h2 := h1.below hb2
    have HBT := Lib.hid (But.of_below (b := b) (below_next hb1 hb2))
    have HKK := HK
    have hX := ext_drop s k
    have hz : (s.extract k s.size).size ≤ 10000000 := by rw [ByteArray.size_extract]; have := HS.out; omega
    generalize s.extract k s.size = V at hX hz
    have HX := Lib.hid hX
    have hD := digits10 V 10 (by decide) (by unfold maxLen; omega)
    have hrd := digRun_ge digB 10 V.data.toList 0 0
    obtain ⟨r, hr⟩ : ∃ r, r = digRun digB 10 V.data.toList 0 0 := ⟨_, rfl⟩
    rw [← hr] at hD hrd
    have HD := Lib.hid hD
    have HRR := Lib.hid hr
    have hle : k + r.2 ≤ s.size := by
      have := hrd.2
      rw [hX, List.length_drop, size_list] at this
      have := HKK.out
      omega
    have HLE := Lib.hid hle
    have hsum : numericL (s.data.toList.drop k) = digitsL [38, 35] 0 r (s.data.toList.drop (k)) := by
      rw [HRR.out, HX.out]
      have hq := HQ.out
      cases ht : s.data.toList.drop k with
      | nil => rfl
      | cons c x =>
        rw [ht] at hq
        simp only [seesB, hx_mark] at hq
        unfold numericL
        simp only
        rw [← hq, if_neg (by simp)]
    have HSUM := Lib.hid hsum
    clear hX hz hD hr hrd hle hsum
    go_wp2_with fail
    refine (HD.out w2).mono ?_
    rintro e w3 ⟨rfl, hb3⟩
    have h3 := h2.below hb3
    have hbb : But b w w3 := HBT.out.trans (But.of_below hb3)
    by_cases h0 : r.2 = 0
    · have hz : ((r.2 : Int) == 0) = true := by rw [beq_iff_eq]; omega
      have H0 := Lib.hid h0
      clear h0
      go_wp2_with fail
      go_ret
      refine ⟨_, 0, rfl, ?_, ?_, HKK.out, h3, hbb⟩
      · rw [HSUM.out]; unfold digitsL; rw [if_pos H0.out]
      · rw [HSUM.out]; unfold digitsL; rw [if_pos H0.out]
    · have hz : ((r.2 : Int) == 0) = false := by rw [beq_eq_false_iff_ne]; omega
      have H0 := Lib.hid h0
      have HT := Lib.hid (takeE b _ T s (k) r.2 HLE.out (by have := HS.out; omega) w3 h3)
      clear h0
      go_wp2_with fail
      refine HT.out.mono ?_
      rintro e w4 ⟨V4, rfl, _, _, h4, hB4⟩
      have HT2 := Lib.hid (tookE b _ T s ⟨#[59]⟩ (k + r.2) 1 rfl HLE.out (by have := HS.out; omega) w4 h4)
      clear h4
      go_wp2_with fail
      refine HT2.out.mono ?_
      rintro e w5 (⟨rfl, hp, hkp, h5, hB5⟩ | ⟨rfl, hp, h5, hB5⟩)
      all_goals
        have hbb5 := (hbb.trans hB4).trans hB5
        have HP := Lib.hid hp
        have HCp := Lib.hid (codePoint r.1 w5 (ctl_but HC.out h hbb5))
        have H5 := Lib.hid h5
        clear hp h5
        go_wp2_with fail
        refine HCp.out.mono ?_
        rintro e w6 ⟨rfl, hb6⟩
        have h6 := H5.out.below hb6
        have hbb6 := hbb5.trans (But.of_below hb6)
        go_wp2_with fail
        go_ret
      · have hh := (pre_head _ _).1 HP.out
        refine ⟨_, 0 + r.2 + 1, rfl, ?_, ?_, ?_, ?_, hbb6⟩
        · rw [HSUM.out]; unfold digitsL; rw [if_neg H0.out]; rfl
        · rw [HSUM.out]; unfold digitsL; rw [if_neg H0.out, List.drop_drop, if_pos hh]
        · omega
        · rw [show k + (0 + r.2 + 1) = k + r.2 + 1 by omega]; exact h6
      · have hh : ¬ ((s.data.toList.drop (k + r.2)).head? = some 59) := fun e => by have := (pre_head _ _).2 e; rw [HP.out] at this; cases this
        refine ⟨_, 0 + r.2, rfl, ?_, ?_, ?_, ?_, hbb6⟩
        · rw [HSUM.out]; unfold digitsL; rw [if_neg H0.out]; rfl
        · rw [HSUM.out]; unfold digitsL; rw [if_neg H0.out, List.drop_drop, if_neg hh]; rfl
        · have := HLE.out; omega
        · rw [show k + (0 + r.2) = k + r.2 by omega]; exact h6
  · go_enter Tryz.func104, Tryz.ntmps104
    have hk1 : k + 1 ≤ s.size := by
      have hq := HQ.out
      have := HK.out
      rcases Nat.lt_or_ge k s.size with hl | hl
      · exact hl
      · rw [drop_end s k hl] at hq; cases hq
    have HK1 := Lib.hid hk1
    clear hk1
    go_wp2_with fail
    refine HSe.out.mono ?_
    rintro e w1 ⟨rfl, hb1⟩
    have h1 := h.below hb1
    have HTk := Lib.hid (takeE b _ T s k 1 HK1.out (by have := HS.out; omega) w1 h1)
    go_wp2_with fail
    refine HTk.out.mono ?_
    rintro e wt ⟨Vt, rfl, hVt, _, ht, hBt⟩
    have HVT := Lib.hid hVt
    have HR := Lib.hid (curRest b _ T s (k + 1) HK1.out wt ht)
    clear hVt
    go_wp2_with fail
    refine HR.out.mono ?_
    rintro e w2 ⟨rfl, hb2⟩
    have h2 := ht.below hb2
    have HBT := Lib.hid (((But.of_below (b := b) hb1).trans hBt).trans (But.of_below (b := b) hb2))
    have HKK := HK1
    have hX := ext_drop s (k + 1)
    have hz : (s.extract (k + 1) s.size).size ≤ 10000000 := by rw [ByteArray.size_extract]; have := HS.out; omega
    generalize s.extract (k + 1) s.size = V at hX hz
    have HX := Lib.hid hX
    have hD := digits16 V (by unfold maxLen; omega)
    have hrd := digRun_ge hexB 16 V.data.toList 0 0
    obtain ⟨r, hr⟩ : ∃ r, r = digRun hexB 16 V.data.toList 0 0 := ⟨_, rfl⟩
    rw [← hr] at hD hrd
    have HD := Lib.hid hD
    have HRR := Lib.hid hr
    have hle : k + 1 + r.2 ≤ s.size := by
      have := hrd.2
      rw [hX, List.length_drop, size_list] at this
      have := HKK.out
      omega
    have HLE := Lib.hid hle
    have hsum : numericL (s.data.toList.drop k) = digitsL (38 :: 35 :: Vt.data.toList) 1 r (s.data.toList.drop (k + 1)) := by
      rw [HRR.out, HX.out, HVT.out]
      have hq := HQ.out
      have hd := drop_byte s k (by have := HK1.out; omega)
      rw [hd] at hq ⊢
      simp only [seesB, hx_mark] at hq
      unfold numericL
      simp only
      rw [← hq, if_pos rfl]
      rfl
    have HSUM := Lib.hid hsum
    clear hX hz hD hr hrd hle hsum
    go_wp2_with fail
    refine (HD.out w2).mono ?_
    rintro e w3 ⟨rfl, hb3⟩
    have h3 := h2.below hb3
    have hbb : But b w w3 := HBT.out.trans (But.of_below hb3)
    by_cases h0 : r.2 = 0
    · have hz : ((r.2 : Int) == 0) = true := by rw [beq_iff_eq]; omega
      have H0 := Lib.hid h0
      clear h0
      go_wp2_with fail
      go_ret
      refine ⟨_, 1, rfl, ?_, ?_, HKK.out, h3, hbb⟩
      · rw [HSUM.out]; unfold digitsL; rw [if_pos H0.out]; rw [ByteArray.data_append, Array.toList_append]; rfl
      · rw [HSUM.out]; unfold digitsL; rw [if_pos H0.out]
    · have hz : ((r.2 : Int) == 0) = false := by rw [beq_eq_false_iff_ne]; omega
      have H0 := Lib.hid h0
      have HT := Lib.hid (takeE b _ T s (k + 1) r.2 HLE.out (by have := HS.out; omega) w3 h3)
      clear h0
      go_wp2_with fail
      refine HT.out.mono ?_
      rintro e w4 ⟨V4, rfl, _, _, h4, hB4⟩
      have HT2 := Lib.hid (tookE b _ T s ⟨#[59]⟩ (k + 1 + r.2) 1 rfl HLE.out (by have := HS.out; omega) w4 h4)
      clear h4
      go_wp2_with fail
      refine HT2.out.mono ?_
      rintro e w5 (⟨rfl, hp, hkp, h5, hB5⟩ | ⟨rfl, hp, h5, hB5⟩)
      all_goals
        have hbb5 := (hbb.trans hB4).trans hB5
        have HP := Lib.hid hp
        have HCp := Lib.hid (codePoint r.1 w5 (ctl_but HC.out h hbb5))
        have H5 := Lib.hid h5
        clear hp h5
        go_wp2_with fail
        refine HCp.out.mono ?_
        rintro e w6 ⟨rfl, hb6⟩
        have h6 := H5.out.below hb6
        have hbb6 := hbb5.trans (But.of_below hb6)
        go_wp2_with fail
        go_ret
      · have hh := (pre_head _ _).1 HP.out
        refine ⟨_, 1 + r.2 + 1, rfl, ?_, ?_, ?_, ?_, hbb6⟩
        · rw [HSUM.out]; unfold digitsL; rw [if_neg H0.out]; rfl
        · rw [HSUM.out]; unfold digitsL; rw [if_neg H0.out, List.drop_drop, if_pos hh]
        · have := hkp; omega
        · rw [show k + (1 + r.2 + 1) = k + 1 + r.2 + 1 by omega]; exact h6
      · have hh : ¬ ((s.data.toList.drop (k + 1 + r.2)).head? = some 59) := fun e => by have := (pre_head _ _).2 e; rw [HP.out] at this; cases this
        refine ⟨_, 1 + r.2, rfl, ?_, ?_, ?_, ?_, hbb6⟩
        · rw [HSUM.out]; unfold digitsL; rw [if_neg H0.out]; rfl
        · rw [HSUM.out]; unfold digitsL; rw [if_neg H0.out, List.drop_drop, if_neg hh]; rfl
        · have := HLE.out; omega
        · rw [show k + (1 + r.2) = k + 1 + r.2 by omega]; exact h6

theorem lgP_le {s : List UInt8} {n : Int} {V : ByteArray} (h : LgP s n V) : n ≤ (s.length : Int) := by
  rcases h with ⟨rfl, _⟩ | ⟨e, _, hp, rfl, _⟩
  · omega
  · have := hp.length_le
    omega

theorem ret2_SI' {S S' : ByteArray} {i j : Int} (h : S = S') (h2 : i = j) : Ending.returned (.tuple #[.string S, .int .i64 i]) = .returned (.tuple #[.string S', .int .i64 j]) := by rw [h, h2]
theorem seesE2 (g : Nat) (eg : ∀ args w, (callFunc g args).run Tryz.prog w = .ok (.enter g args) w) (p : Nat → Bool) (b : Nat) (T : TypeId) (s : ByteArray) (k : Nat) (hk : k ≤ s.size) (hp : ∀ w, PredGrows Tryz.prog g #[] p w) (w : World) (h : At w b #[.string s, .int .i64 k] T s k) :
    Calls Tryz.prog 75 #[.pointer (some ⟨b, 0, none⟩), .func (.func g) #[] #[]] w fun e w' => e = .returned (.bool (seesB p (s.data.toList.drop k))) ∧ Below w.heap.size w w' ∧ At w' b #[.string s, .int .i64 k] T s k := by
  refine (seesE g eg p b _ T s k hk w (hp w) h).mono ?_
  rintro e w' ⟨rfl, hb⟩
  exact ⟨rfl, hb, h.below hb⟩

theorem endsRef_sees (t : List UInt8) : endsRef t = (seesB (fun r => alnB r) t || seesB (fun r => decide ((r : Int) = 61)) t) := by
  cases t with
  | nil => rfl
  | cons d r =>
    unfold endsRef seesB alU
    have h1 : decide ((d.toNat : Int) = 61) = (d == 61) := by rw [Bool.eq_iff_iff]; simp [← UInt8.toNat_inj]; omega
    simp only
    rw [h1]

end Go.Proofs.YtnfccckodgknjaaGreatDoor

namespace Go.Proofs.YtnfccckodgknjaaGreatDoor
open Go.RowKit Go.Shelf Go.Lib
set_option maxHeartbeats 2000000
set_option maxRecDepth 100000

theorem namedC (lg : List UInt8 → Nat × List UInt8) (HLG : Hid (LgOk lg)) (b : Nat) (T : TypeId) (s : ByteArray) (k : Nat) (attr : Bool) (hk : k ≤ s.size) (hs : s.size ≤ 10000000) (m : Int) (w : World) (hm : w.cell? ⟨1, 0, none⟩ = some (.int .i64 m)) (h : At w b #[.string s, .int .i64 k] T s k) :
    Calls Tryz.prog 103 #[.pointer (some ⟨b, 0, none⟩), .bool attr] w fun e w' => ∃ (V : ByteArray) (N : Nat), e = .returned (.string V) ∧ V.data.toList = (namedL lg attr (s.data.toList.drop k)).1 ∧ N = (namedL lg attr (s.data.toList.drop k)).2 ∧ k + N ≤ s.size ∧
      At w' b #[.string s, .int .i64 ((k + N : Nat) : Int)] T s (k + N) ∧ But b w w' := by
  have HS := Lib.hid hs
  have HK := Lib.hid hk
  have HR := Lib.hid (curRest b _ T s k hk w h)
  have HM := Lib.hid hm
  obtain ⟨r, hr⟩ : ∃ r, r = namedL lg attr (s.data.toList.drop k) := ⟨_, rfl⟩
  rw [← hr]
  have HRR := Lib.hid hr
  clear hm hs hk hr
  go_enter Tryz.func103, Tryz.ntmps103
  go_wp2_with fail
  refine HR.out.mono ?_
  rintro e w1 ⟨rfl, hb1⟩
  have h1 := h.below hb1
  have hX := ext_drop s k
  generalize s.extract k s.size = V at hX
  have HX := Lib.hid hX
  have HL := Lib.hid (longest V m w1 (carry HM.out hb1))
  clear hX
  go_wp2_with fail
  refine HL.out.mono ?_
  rintro e w2 ⟨n, V2, rfl, hlg, hb2⟩
  have h2 := h1.below hb2
  have hbb : But b w w2 := But.of_below (below_next hb1 hb2)
  obtain ⟨hn, hV2⟩ := HLG.out.ok _ _ _ hlg
  rw [HX.out] at hn hV2
  obtain ⟨N, hN⟩ : ∃ N, N = (lg (s.data.toList.drop k)).1 := ⟨_, rfl⟩
  rw [← hN] at hn
  have hkN : k + N ≤ s.size := by
    have := lgP_le hlg
    rw [HX.out, List.length_drop, size_list] at this
    have := HK.out
    omega
  have HN := Lib.hid hN
  have HV2 := Lib.hid hV2
  have HKN := Lib.hid hkN
  clear hN hV2 hlg hkN
  subst hn
  by_cases h0 : N = 0
  · have hz : ((N : Int) == 0) = true := by rw [beq_iff_eq]; omega
    have hr := HRR.out.trans (namedL_0 HN.out h0)
    have HRES := Lib.hid hr
    clear h0 hr
    go_wp2_with fail
    go_ret
    exact ⟨_, 0, rfl, by rw [HRES.out], by rw [HRES.out], HK.out, h2, hbb⟩
  · have hz : ((N : Int) == 0) = false := by rw [beq_eq_false_iff_ne]; omega
    have H0 := Lib.hid h0
    have HT := Lib.hid (takeE b _ T s k N HKN.out (by have := HS.out; omega) w2 h2)
    clear h0
    go_wp2_with fail
    refine HT.out.mono ?_
    rintro e w3 ⟨V3, rfl, hV3, hz3, h3, hB3⟩
    have hbb3 := hbb.trans hB3
    have HV3 := Lib.hid hV3
    have HSf := Lib.hid (fun w => Tryz.strings_HasSuffix V3 ⟨#[59]⟩ w (by have := HS.out; have := HKN.out; omega))
    obtain ⟨sf, hsf⟩ : ∃ sf, sf = hasSuffix V3.data.toList [59] := ⟨_, rfl⟩
    rw [show (⟨#[59]⟩ : ByteArray).data.toList = [59] from rfl, ← hsf] at HSf
    rw [hV3] at hsf
    have HA := Lib.hid (seesE2 102 (fun args w => enters_of Tryz.func102 (by kernel_rfl) rfl args w) (fun r => alnB r) b T s (k + N) HKN.out grows_alnum)
    have HQ := Lib.hid (seesE2 129 (fun args w => enters_of Tryz.func129 (by kernel_rfl) rfl args w) (fun r => decide ((r : Int) = 61)) b T s (k + N) HKN.out grows_equals)
    have her := endsRef_sees (s.data.toList.drop (k + N))
    obtain ⟨q1, hq1⟩ : ∃ q, q = seesB (fun r => alnB r) (s.data.toList.drop (k + N)) := ⟨_, rfl⟩
    obtain ⟨q2, hq2⟩ : ∃ q, q = seesB (fun r => decide ((r : Int) = 61)) (s.data.toList.drop (k + N)) := ⟨_, rfl⟩
    rw [← hq1] at HA her
    rw [← hq2] at HQ her
    have hr : r = if (attr && !sf && (q1 || q2)) then (38 :: (s.data.toList.drop k).take N, N) else (V2.data.toList, N) := by
      rw [HV2.out]
      refine HRR.out.trans (namedL_c HN.out H0.out ?_)
      rw [List.drop_drop, her, hsf]
    rw [← HV3.out] at hr
    have HRES := Lib.hid hr
    have hz4 : V3.size ≤ 10000000 := by have := HS.out; have := HKN.out; omega
    clear hV3 hz3 hsf hq1 hq2 her hr
    cases attr
    · go_wp2_with fail
      go_ret
      exact ⟨_, N, rfl, by rw [HRES.out]; rfl, by rw [HRES.out]; rfl, HKN.out, h3, hbb3⟩
    · cases sf
      · cases q1
        · cases q2
          · go_wp2_with fail
            refine (HSf.out _).mono ?_
            rintro e w4 ⟨rfl, rfl⟩
            go_wp2_with fail
            refine (HA.out _ h3).mono ?_
            rintro e w5 ⟨rfl, hb5, h5⟩
            go_wp2_with fail
            refine (HQ.out _ h5).mono ?_
            rintro e w6 ⟨rfl, hb6, h6⟩
            go_wp2_with fail
            go_ret
            exact ⟨_, N, rfl, by rw [HRES.out]; rfl, by rw [HRES.out]; rfl, HKN.out, h6, (hbb3.trans (But.of_below hb5)).trans (But.of_below hb6)⟩
          · go_wp2_with fail
            refine (HSf.out _).mono ?_
            rintro e w4 ⟨rfl, rfl⟩
            go_wp2_with fail
            refine (HA.out _ h3).mono ?_
            rintro e w5 ⟨rfl, hb5, h5⟩
            go_wp2_with fail
            refine (HQ.out _ h5).mono ?_
            rintro e w6 ⟨rfl, hb6, h6⟩
            go_wp2_with fail
            go_ret
            exact ⟨_, N, rfl, by rw [HRES.out, ByteArray.data_append, Array.toList_append]; rfl, by rw [HRES.out]; rfl, HKN.out, h6, (hbb3.trans (But.of_below hb5)).trans (But.of_below hb6)⟩
        · go_wp2_with fail
          refine (HSf.out _).mono ?_
          rintro e w4 ⟨rfl, rfl⟩
          go_wp2_with fail
          refine (HA.out _ h3).mono ?_
          rintro e w5 ⟨rfl, hb5, h5⟩
          go_wp2_with fail
          go_ret
          exact ⟨_, N, rfl, by rw [HRES.out, ByteArray.data_append, Array.toList_append]; rfl, by rw [HRES.out]; rfl, HKN.out, h5, hbb3.trans (But.of_below hb5)⟩
      · go_wp2_with fail
        refine (HSf.out _).mono ?_
        rintro e w4 ⟨rfl, rfl⟩
        go_wp2_with fail
        go_ret
        exact ⟨_, N, rfl, by rw [HRES.out]; rfl, by rw [HRES.out]; rfl, HKN.out, h3, hbb3⟩
end Go.Proofs.YtnfccckodgknjaaGreatDoor

namespace Go.Proofs.YtnfccckodgknjaaGreatDoor
open Go.RowKit Go.Shelf Go.Lib
set_option maxHeartbeats 2000000
set_option maxRecDepth 100000

theorem referenceC (lg : List UInt8 → Nat × List UInt8) (HLG : Hid (LgOk lg)) (s : ByteArray) (a : Int) (attr : Bool) (m : Int) (hs : s.size ≤ 10000000) (w : World) (hc : CtlW w) (hm : w.cell? ⟨1, 0, none⟩ = some (.int .i64 m)) :
    Calls Tryz.prog 49 #[.string s, .int .i64 a, .bool attr] w fun e w' => ∃ (V : ByteArray) (N : Nat), e = .returned (.tuple #[.string V, .int .i64 ((clip s a + N : Nat) : Int)]) ∧ V.data.toList = (refL lg attr (tlS s a)).1 ∧ N = (refL lg attr (tlS s a)).2 ∧ clip s a + N ≤ s.size ∧ Below w.heap.size w w' := by
  have HC := Lib.hid (cursorAt s a (by unfold maxLen; omega))
  have HM := Lib.hid hm
  have HCt := Lib.hid hc
  have hk := clip_le s a
  unfold tlS
  generalize clip s a = k at HC hk ⊢
  have HK := Lib.hid hk
  have HS := Lib.hid hs
  have HSe := Lib.hid (seesE2 102 (fun args w => enters_of Tryz.func102 (by kernel_rfl) rfl args w) (fun r => alnB r))
  obtain ⟨q, hq⟩ : ∃ q, q = seesB (fun r => alnB r) (s.data.toList.drop k) := ⟨_, rfl⟩
  have HQ := Lib.hid hq
  clear hm hk hs hc hq
  cases q
  · go_enter Tryz.func49, Tryz.ntmps49
    go_wp2_with fail
    refine (HC.out _).mono ?_
    rintro e w1 ⟨rfl, hb1⟩
    have hat : At (w1.alloc (.cells #[.string s, .int .i64 k] 79)) w1.heap.size #[.string s, .int .i64 k] 79 s k := at_new rfl
    have hB : Below w.heap.size w (w1.alloc (.cells #[.string s, .int .i64 k] 79)) := below_alloc hb1 _
    have hle : w.heap.size ≤ w1.heap.size := hb1.size
    have HS1 := Lib.hid (HSe.out w1.heap.size _ s k HK.out grows_alnum _ hat)
    rw [← HQ.out] at HS1
    clear hat
    go_wp2_with fail
    refine HS1.out.mono ?_
    rintro e w2 ⟨rfl, hb2, h2⟩
    have hBB := below_next hB hb2
    have HT := Lib.hid (tookE w1.heap.size _ 79 s ⟨#[35]⟩ k 1 rfl HK.out (by have := HS.out; omega) w2 h2)
    clear h2
    go_wp2_with fail
    refine HT.out.mono ?_
    rintro e w3 (⟨rfl, hp, hkp, h3, hB3⟩ | ⟨rfl, hp, h3, hB3⟩)
    · have hBB3 := below_but hBB hB3 hle
      have HNu := Lib.hid (numericC w1.heap.size 79 s (k + 1) hkp HS.out w3 (HCt.out.below hBB3) h3)
      have HP := Lib.hid hp
      have HKP := Lib.hid hkp
      clear hp h3 hkp
      go_wp2_with fail
      refine HNu.out.mono ?_
      rintro e w4 ⟨V, N, rfl, hV, hN, hkN, h4, hB4⟩
      have c1 := h4.cell1
      have HV := Lib.hid hV
      have HN := Lib.hid hN
      have HKN := Lib.hid hkN
      clear hV hN hkN
      go_wp2_with fail
      go_quiet (fail)
      go_wp2_with fail
      go_ret2
      have hsum : refL lg attr (s.data.toList.drop k) = ((numericL (s.data.toList.drop (k + 1))).1, (numericL (s.data.toList.drop (k + 1))).2 + 1) := by
        have hd := drop_byte s k (by have := HKP.out; omega)
        have hq := HQ.out
        have hp := HP.out
        rw [hd] at hq hp ⊢
        simp only [seesB] at hq
        unfold refL alU
        simp only
        rw [← hq, if_neg (by simp), if_pos (by simpa using (pre_head _ _).1 hp)]
      refine ⟨V, N + 1, ret2_SI' rfl (by simp; omega), by rw [hsum, HV.out], by rw [hsum, HN.out], by have := HKN.out; omega, _root_.Go.below_drewN (below_but hBB3 hB4 hle) nq⟩
    · have hBB3 := below_but hBB hB3 hle
      have HP := Lib.hid hp
      have c1 := h3.cell1
      clear hp
      go_wp2_with fail
      go_quiet (fail)
      go_wp2_with fail
      go_ret2
      have hsum : refL lg attr (s.data.toList.drop k) = ([38], 0) := by
        have hq := HQ.out
        have hp := HP.out
        cases ht : s.data.toList.drop k with
        | nil => rfl
        | cons c r =>
          rw [ht] at hq hp
          simp only [seesB] at hq
          unfold refL alU
          simp only
          rw [← hq, if_neg (by simp), if_neg (by intro e; subst e; simp [List.isPrefixOf] at hp)]
      exact ⟨_, 0, rfl, by rw [hsum], by rw [hsum], HK.out, _root_.Go.below_drewN hBB3 nq⟩
  · go_enter Tryz.func49, Tryz.ntmps49
    go_wp2_with fail
    refine (HC.out _).mono ?_
    rintro e w1 ⟨rfl, hb1⟩
    have hat : At (w1.alloc (.cells #[.string s, .int .i64 k] 79)) w1.heap.size #[.string s, .int .i64 k] 79 s k := at_new rfl
    have hB : Below w.heap.size w (w1.alloc (.cells #[.string s, .int .i64 k] 79)) := below_alloc hb1 _
    have hle : w.heap.size ≤ w1.heap.size := hb1.size
    have HS1 := Lib.hid (HSe.out w1.heap.size _ s k HK.out grows_alnum _ hat)
    rw [← HQ.out] at HS1
    clear hat
    go_wp2_with fail
    refine HS1.out.mono ?_
    rintro e w2 ⟨rfl, hb2, h2⟩
    have hBB := below_next hB hb2
    have HNa := Lib.hid (namedC lg HLG w1.heap.size 79 s k attr HK.out HS.out m w2 (carry HM.out hBB) h2)
    clear h2
    go_wp2_with fail
    refine HNa.out.mono ?_
    rintro e w3 ⟨V, N, rfl, hV, hN, hkN, h3, hB3⟩
    have c1 := h3.cell1
    have HV := Lib.hid hV
    have HN := Lib.hid hN
    have HKN := Lib.hid hkN
    clear hV hN hkN
    go_wp2_with fail
    go_quiet (fail)
    go_wp2_with fail
    go_ret2
    have hsum : refL lg attr (s.data.toList.drop k) = namedL lg attr (s.data.toList.drop k) := by
      have hq := HQ.out
      cases ht : s.data.toList.drop k with
      | nil => rw [ht] at hq; cases hq
      | cons c r =>
        rw [ht] at hq
        simp only [seesB] at hq
        unfold refL alU
        simp only
        rw [← hq, if_pos rfl]
    exact ⟨V, N, ret2_SI' rfl (by simp), by rw [hsum, HV.out], by rw [hsum, HN.out], HKN.out, _root_.Go.below_drewN (below_but hBB hB3 hle) nq⟩
end Go.Proofs.YtnfccckodgknjaaGreatDoor
