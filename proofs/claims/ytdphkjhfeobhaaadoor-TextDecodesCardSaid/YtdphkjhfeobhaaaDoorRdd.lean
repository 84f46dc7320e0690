/-
  The document's own decoder.
-/
import Derived.Test.YtdphkjhfeobhaaaDoorRvw
namespace Go.Proofs.YtdphkjhfeobhaaaDoor
open Go.RowKit
set_option maxHeartbeats 2000000
set_option maxRecDepth 100000

/-! ### Rvl -/

/-- The three kinds of first bytes. -/
theorem kinds (b : UInt8) (t : List UInt8) : (measTab encT b t = (1, true) ∧ wantZ (b.toNat : Int) = 1) ∨ (measTab encT b t = (1, false) ∧ wantZ (b.toNat : Int) = 0) ∨
    ∃ (lo hi : Int) (k : Nat), measTab encT b t = measRest ((lo, hi) :: List.replicate k (128, 191)) t 1 ∧ wantZ (b.toNat : Int) = k + 2 ∧ ∀ x, (secB (b.toNat : Int) x && moreB x) = inB lo hi x := by
  have hl := b.toNat_lt
  have one : measTab encT b t = (1, true) → wantZ (b.toNat : Int) = 1 → (measTab encT b t = (1, true) ∧ wantZ (b.toNat : Int) = 1) ∨ (measTab encT b t = (1, false) ∧ wantZ (b.toNat : Int) = 0) ∨
    ∃ (lo hi : Int) (k : Nat), measTab encT b t = measRest ((lo, hi) :: List.replicate k (128, 191)) t 1 ∧ wantZ (b.toNat : Int) = k + 2 ∧ ∀ x, (secB (b.toNat : Int) x && moreB x) = inB lo hi x := fun h1 h2 => .inl ⟨h1, h2⟩
  have none : measTab encT b t = (1, false) → wantZ (b.toNat : Int) = 0 → (measTab encT b t = (1, true) ∧ wantZ (b.toNat : Int) = 1) ∨ (measTab encT b t = (1, false) ∧ wantZ (b.toNat : Int) = 0) ∨
    ∃ (lo hi : Int) (k : Nat), measTab encT b t = measRest ((lo, hi) :: List.replicate k (128, 191)) t 1 ∧ wantZ (b.toNat : Int) = k + 2 ∧ ∀ x, (secB (b.toNat : Int) x && moreB x) = inB lo hi x := fun h1 h2 => .inr (.inl ⟨h1, h2⟩)
  have go : ∀ (lo hi : Int) (k : Nat), measTab encT b t = measRest ((lo, hi) :: List.replicate k (128, 191)) t 1 → wantZ (b.toNat : Int) = k + 2 → (∀ x, (secB (b.toNat : Int) x && moreB x) = inB lo hi x) → (measTab encT b t = (1, true) ∧ wantZ (b.toNat : Int) = 1) ∨ (measTab encT b t = (1, false) ∧ wantZ (b.toNat : Int) = 0) ∨
    ∃ (lo hi : Int) (k : Nat), measTab encT b t = measRest ((lo, hi) :: List.replicate k (128, 191)) t 1 ∧ wantZ (b.toNat : Int) = k + 2 ∧ ∀ x, (secB (b.toNat : Int) x && moreB x) = inB lo hi x := fun lo hi k h1 h2 h3 => .inr (.inr ⟨lo, hi, k, h1, h2, h3⟩)
  generalize hG : ((measTab encT b t = (1, true) ∧ wantZ (b.toNat : Int) = 1) ∨ (measTab encT b t = (1, false) ∧ wantZ (b.toNat : Int) = 0) ∨
    ∃ (lo hi : Int) (k : Nat), measTab encT b t = measRest ((lo, hi) :: List.replicate k (128, 191)) t 1 ∧ wantZ (b.toNat : Int) = k + 2 ∧ ∀ x, (secB (b.toNat : Int) x && moreB x) = inB lo hi x) = G at one go none ⊢
  by_cases g1 : b.toNat < 128
  · refine one ?_ (by unfold wantZ; rw [if_pos (by omega)])
    unfold encT
    rw [tab_hit _ _ _ _ _ _ (by omega) (by omega)]
    cases t <;> rfl
  by_cases g2 : b.toNat < 194 ∨ 245 ≤ b.toNat
  · refine none ?_ (by unfold wantZ; rw [if_neg (by omega), if_neg (by omega), if_neg (by omega), if_neg (by omega)])
    unfold encT
    rw [tab_skip _ _ _ _ _ _ (by omega), tab_skip _ _ _ _ _ _ (by omega), tab_skip _ _ _ _ _ _ (by omega), tab_skip _ _ _ _ _ _ (by omega), tab_skip _ _ _ _ _ _ (by omega), tab_skip _ _ _ _ _ _ (by omega), tab_skip _ _ _ _ _ _ (by omega), tab_skip _ _ _ _ _ _ (by omega), tab_skip _ _ _ _ _ _ (by omega)]
    rfl
  have hoth : ∀ x, ¬ b.toNat = 224 → ¬ b.toNat = 237 → ¬ b.toNat = 240 → ¬ b.toNat = 244 → (secB (b.toNat : Int) x && moreB x) = inB 128 191 x := by
    intro x a1 a2 a3 a4
    rw [secB_oth _ _ (by omega) (by omega) (by omega) (by omega), Bool.and_self]
    rfl
  by_cases g3 : b.toNat ≤ 223
  · refine go 128 191 0 ?_ (by unfold wantZ; rw [if_neg (by omega), if_pos (by omega)]; rfl) (fun x => hoth x (by omega) (by omega) (by omega) (by omega))
    unfold encT
    rw [tab_skip _ _ _ _ _ _ (by omega), tab_hit _ _ _ _ _ _ (by omega) (by omega)]
    rfl
  by_cases g4 : b.toNat ≤ 239
  · have hw : wantZ (b.toNat : Int) = (1 : Nat) + 2 := by unfold wantZ; rw [if_neg (by omega), if_neg (by omega), if_pos (by omega)]; rfl
    by_cases a1 : b.toNat = 224
    · refine go 160 191 1 ?_ hw (fun x => sec_more _ x 160 191 (by rw [a1]; rfl) (by omega) (by omega))
      unfold encT
      rw [tab_skip _ _ _ _ _ _ (by omega), tab_skip _ _ _ _ _ _ (by omega), tab_hit _ _ _ _ _ _ (by omega) (by omega)]
      rfl
    by_cases a2 : b.toNat ≤ 236
    · refine go 128 191 1 ?_ hw (fun x => hoth x (by omega) (by omega) (by omega) (by omega))
      unfold encT
      rw [tab_skip _ _ _ _ _ _ (by omega), tab_skip _ _ _ _ _ _ (by omega), tab_skip _ _ _ _ _ _ (by omega), tab_hit _ _ _ _ _ _ (by omega) (by omega)]
      rfl
    by_cases a3 : b.toNat = 237
    · refine go 128 159 1 ?_ hw (fun x => sec_more _ x 128 159 (by rw [a3]; rfl) (by omega) (by omega))
      unfold encT
      rw [tab_skip _ _ _ _ _ _ (by omega), tab_skip _ _ _ _ _ _ (by omega), tab_skip _ _ _ _ _ _ (by omega), tab_skip _ _ _ _ _ _ (by omega), tab_hit _ _ _ _ _ _ (by omega) (by omega)]
      rfl
    · refine go 128 191 1 ?_ hw (fun x => hoth x (by omega) (by omega) (by omega) (by omega))
      unfold encT
      rw [tab_skip _ _ _ _ _ _ (by omega), tab_skip _ _ _ _ _ _ (by omega), tab_skip _ _ _ _ _ _ (by omega), tab_skip _ _ _ _ _ _ (by omega), tab_skip _ _ _ _ _ _ (by omega), tab_hit _ _ _ _ _ _ (by omega) (by omega)]
      rfl
  have hw : wantZ (b.toNat : Int) = (2 : Nat) + 2 := by unfold wantZ; rw [if_neg (by omega), if_neg (by omega), if_neg (by omega), if_pos (by omega)]; rfl
  by_cases a1 : b.toNat = 240
  · refine go 144 191 2 ?_ hw (fun x => sec_more _ x 144 191 (by rw [a1]; rfl) (by omega) (by omega))
    unfold encT
    rw [tab_skip _ _ _ _ _ _ (by omega), tab_skip _ _ _ _ _ _ (by omega), tab_skip _ _ _ _ _ _ (by omega), tab_skip _ _ _ _ _ _ (by omega), tab_skip _ _ _ _ _ _ (by omega), tab_skip _ _ _ _ _ _ (by omega), tab_hit _ _ _ _ _ _ (by omega) (by omega)]
    rfl
  by_cases a2 : b.toNat ≤ 243
  · refine go 128 191 2 ?_ hw (fun x => hoth x (by omega) (by omega) (by omega) (by omega))
    unfold encT
    rw [tab_skip _ _ _ _ _ _ (by omega), tab_skip _ _ _ _ _ _ (by omega), tab_skip _ _ _ _ _ _ (by omega), tab_skip _ _ _ _ _ _ (by omega), tab_skip _ _ _ _ _ _ (by omega), tab_skip _ _ _ _ _ _ (by omega), tab_skip _ _ _ _ _ _ (by omega), tab_hit _ _ _ _ _ _ (by omega) (by omega)]
    rfl
  · refine go 128 143 2 ?_ hw (fun x => sec_more _ x 128 143 (by rw [show b.toNat = 244 by omega]; rfl) (by omega) (by omega))
    unfold encT
    rw [tab_skip _ _ _ _ _ _ (by omega), tab_skip _ _ _ _ _ _ (by omega), tab_skip _ _ _ _ _ _ (by omega), tab_skip _ _ _ _ _ _ (by omega), tab_skip _ _ _ _ _ _ (by omega), tab_skip _ _ _ _ _ _ (by omega), tab_skip _ _ _ _ _ _ (by omega), tab_skip _ _ _ _ _ _ (by omega), tab_hit _ _ _ _ _ _ (by omega) (by omega)]
    rfl

/-- How far the bytes go on. -/
theorem row_len (a : Int) (lo hi : Int) (hs : ∀ x, (secB a x && moreB x) = inB lo hi x) (k : Nat) (t : List UInt8) (j : Nat) (hj : 1 ≤ j) :
    (j + 1 ≤ (measRest ((lo, hi) :: List.replicate k (128, 191)) t 1).1) ↔ (j ≤ k + 1 ∧ j ≤ t.length ∧ contB a (t.take j) 1 = true) := by
  have tail : ∀ (k : Nat) (t : List UInt8) (n i j : Nat), 1 < i → ((n + j ≤ (measRest (List.replicate k (128, 191)) t n).1) ↔ (j ≤ k ∧ j ≤ t.length ∧ contB a (t.take j) i = true)) := by
    intro k
    induction k with
    | zero =>
      intro t n i j _
      have e : measRest (List.replicate 0 (128, 191)) t n = (n, true) := by cases t <;> rfl
      rw [e]
      constructor
      · intro h
        have : j = 0 := by simp at h; omega
        subst this
        simp [contB]
      · intro h; simp; omega
    | succ k ih =>
      intro t n i j hi
      cases j with
      | zero =>
        have := measRest_pos (List.replicate (k + 1) (128, 191)) t n
        simp [contB]
        omega
      | succ j =>
        cases t with
        | nil => simp [measRest, List.replicate_succ]
        | cons x t =>
          have h1 := ih t (n + 1) (i + 1) j (by omega)
          rw [List.replicate_succ, mr_cons, List.take_succ_cons, cb_more _ _ _ _ hi, more_in]
          cases hx : inB 128 191 (x.toNat : Int) with
          | true =>
            rw [if_pos rfl, show n + (j + 1) = n + 1 + j by omega, h1, Bool.true_and, List.length_cons]
            constructor
            · intro h; exact ⟨by omega, by omega, h.2.2⟩
            · intro h; exact ⟨by omega, by omega, h.2.2⟩
          | false => simp
  obtain ⟨j, rfl⟩ : ∃ q, j = q + 1 := ⟨j - 1, by omega⟩
  cases t with
  | nil => simp [measRest]
  | cons x t =>
    have h1 := tail k t 2 2 j (by omega)
    rw [mr_cons, List.take_succ_cons, cb_one, hs]
    cases hx : inB lo hi (x.toNat : Int) with
    | true =>
      rw [if_pos rfl, show j + 1 + 1 = 2 + j by omega, h1, Bool.true_and, List.length_cons]
      constructor
      · intro h; exact ⟨by omega, by omega, h.2.2⟩
      · intro h; exact ⟨by omega, by omega, h.2.2⟩
    | false => simp

/-- The first k bytes are an encoding or a partial one just if the first piece is as long. -/
theorem piece_len (b : UInt8) (t : List UInt8) (j : Nat) (hj : 1 ≤ j) : (j + 1 ≤ (measTab encT b t).1) ↔ ((j : Int) + 1 ≤ wantZ (b.toNat : Int) ∧ j ≤ t.length ∧ contB (b.toNat : Int) (t.take j) 1 = true) := by
  rcases kinds b t with ⟨h1, h2⟩ | ⟨h1, h2⟩ | ⟨lo, hi, k, h1, h2, h3⟩
  · rw [h1, h2]; simp; omega
  · rw [h1, h2]; simp; omega
  · rw [h1, h2, row_len (b.toNat : Int) lo hi h3 k t j hj]
    constructor
    · intro h; exact ⟨by omega, h.2⟩
    · intro h; exact ⟨by omega, h.2⟩

/-! ### Rpi -/

theorem rBeginsAny (s : ByteArray) (h0 : 0 < s.size) (hs : s.size ≤ maxLen) (w : World) :
    Calls Tryd.prog 105 #[.string s] w fun e w' => e = .returned (.bool (decide ((s.size : Int) ≤ wantZ ((s[0]'h0).toNat : Int)) && contB ((s[0]'h0).toNat : Int) (s.data.toList.drop 1) 1)) ∧ Below w.heap.size w w' := by
  by_cases hw : wantZ ((s[0]'h0).toNat : Int) < (s.size : Int)
  · have hv : (decide ((s.size : Int) ≤ wantZ ((s[0]'h0).toNat : Int)) && contB ((s[0]'h0).toNat : Int) (s.data.toList.drop 1) 1) = false := by
      rw [decide_eq_false (by omega)]; rfl
    rw [hv]
    have hz : ((s.size : Int) == 0) = false := by rw [beq_eq_false_iff_ne]; omega
    have hI : (0 : Int) < (s.size : Int) := by omega
    clear hv
    go_enter Tryd.func105, Tryd.ntmps105
    go_wp2_with (go_at_call 82; refine (rWant _ _).mono ?_; rintro e w' ⟨rfl, rfl⟩)
    go_ret
    exact ⟨rfl, Below.refl _ _⟩
  · have hv : (decide ((s.size : Int) ≤ wantZ ((s[0]'h0).toNat : Int)) && contB ((s[0]'h0).toNat : Int) (s.data.toList.drop 1) 1) = contB ((s[0]'h0).toNat : Int) (s.data.toList.drop 1) 1 := by
      rw [decide_eq_true (by omega)]; rfl
    rw [hv]
    exact rBegins s h0 hs hw w

theorem begins_at (s : ByteArray) (h0 : 0 < s.size) (hs : s.size ≤ 400000) (k : Nat) (hk : 2 ≤ k) (hks : k ≤ s.size) (w : World) :
    Calls Tryd.prog 105 #[.string (s.extract 0 k)] w fun e w' => e = .returned (.bool (decide (k ≤ (measTab encT (s[0]'h0) (s.data.toList.drop 1)).1))) ∧ Below w.heap.size w w' := by
  have xs : (s.extract 0 k).size = k := by rw [ByteArray.size_extract]; omega
  have x0 : 0 < (s.extract 0 k).size := by omega
  have e1 := drop_byte s 0 h0
  rw [List.drop_zero, Nat.zero_add] at e1
  have e2 : (s.extract 0 k).data.toList = s[0]'h0 :: (s.data.toList.drop 1).take (k - 1) := by
    rw [Lib.extract_data, List.drop_zero, Nat.sub_zero]
    conv => lhs; rw [e1]
    obtain ⟨j, rfl⟩ : ∃ j, k = j + 1 := ⟨k - 1, by omega⟩
    rfl
  have e3 := drop_byte (s.extract 0 k) 0 x0
  rw [List.drop_zero, Nat.zero_add, e2] at e3
  injection e3 with e4 e5
  have h := rBeginsAny (s.extract 0 k) x0 (by unfold maxLen; omega) w
  rw [← e4, e2, xs, List.drop_succ_cons, List.drop_zero] at h
  have hp := piece_len (s[0]'h0) (s.data.toList.drop 1) (k - 1) (by omega)
  have hl : (s.data.toList.drop 1).length + 1 = s.size := by rw [List.length_drop, size_list]; omega
  have hv : (decide ((k : Int) ≤ wantZ ((s[0]'h0).toNat : Int)) && contB ((s[0]'h0).toNat : Int) ((s.data.toList.drop 1).take (k - 1)) 1) = decide (k ≤ (measTab encT (s[0]'h0) (s.data.toList.drop 1)).1) := by
    rw [Bool.eq_iff_iff, Bool.and_eq_true, decide_eq_true_eq, decide_eq_true_eq]
    rw [show k - 1 + 1 = k by omega] at hp
    rw [hp]
    constructor
    · intro h; exact ⟨by omega, by omega, h.2⟩
    · intro h; exact ⟨by omega, h.2.2⟩
  rw [hv] at h
  exact h

theorem rPiece (s : ByteArray) (h0 : 0 < s.size) (hs : s.size ≤ 400000) (w : World) :
    Calls Tryd.prog 75 #[.string s] w fun e w' => e = .returned (.int .i64 ((measTab encT (s[0]'h0) (s.data.toList.drop 1)).1 : Nat)) ∧ Below w.heap.size w w' := by
  have HB := Lib.hid (begins_at s h0 hs)
  have hp := measTab_pos encT (s[0]'h0) (s.data.toList.drop 1)
  have h4 := measEnc_le (s[0]'h0) (s.data.toList.drop 1)
  have hl : (s.data.toList.drop 1).length + 1 = s.size := by rw [List.length_drop, size_list]; omega
  generalize (measTab encT (s[0]'h0) (s.data.toList.drop 1)).1 = L at HB hp h4 ⊢
  obtain ⟨p1, p2⟩ := hp
  have p3 : L ≤ s.size := by omega
  clear p2 hl
  go_enter Tryd.func75, Tryd.ntmps75
  go_wp2_with fail
  go_loopw [3, 4] (fun n i wr => ∃ k q : Nat, n = .int .i64 q ∧ i = .int .i64 k ∧ 2 ≤ k ∧ k ≤ 5 ∧ q ≤ 4 ∧ q = min (k - 1) L ∧ Below w.heap.size w wr) (fun _ i _ => 6 - (intOf i).toNat)
  case atStart => exact ⟨2, 1, rfl, rfl, by omega, by omega, by omega, by omega, Below.refl _ _⟩
  case round =>
    obtain ⟨k, q, rfl, rfl, hk2, hk5, hq4, hq, hB⟩ := hrel
    have HQ := Lib.hid hq
    clear hq
    by_cases hk4 : k ≤ 4
    · have i1 : (k : Int) ≤ 4 := by omega
      have i2 : (2 : Int) ≤ (k : Int) := by omega
      by_cases hks : k ≤ s.size
      · have i3 : (k : Int) ≤ (s.size : Int) := by omega
        have HC := Lib.hid (HB.out k hk2 hks)
        cases hd : decide (k ≤ L) with
        | true =>
          rw [hd] at HC
          have HN : Hid (k = min (k + 1 - 1) L) := Lib.hid (by have := of_decide_eq_true hd; omega)
          clear hd hks hk4
          go_wp2_with fail
          refine (HC.out _).mono ?_
          rintro e w1 ⟨rfl, hb1⟩
          have hb1 := below_next hB hb1
          go_wp2_with fail
          go_roundw
          case rel => exact ⟨k + 1, k, rfl, by go_num, by omega, by omega, by omega, HN.out, hb1⟩
          case measure => simp [intOf]; omega
        | false =>
          rw [hd] at HC
          have HN : Hid (q = min (k + 1 - 1) L) := Lib.hid (by have := of_decide_eq_false hd; have := HQ.out; omega)
          clear hd hks hk4
          go_wp2_with fail
          refine (HC.out _).mono ?_
          rintro e w1 ⟨rfl, hb1⟩
          have hb1 := below_next hB hb1
          go_wp2_with fail
          go_roundw
          case rel => exact ⟨k + 1, q, rfl, by go_num, by omega, by omega, by omega, HN.out, hb1⟩
          case measure => simp [intOf]; omega
      · have i3 : (s.size : Int) < (k : Int) := by omega
        have HF : Hid (q = L) := Lib.hid (by have := HQ.out; omega)
        clear hks hk4
        go_wp2_with fail
        go_ret
        exact ⟨ret_int (by rw [HF.out]), hB⟩
    · have i1 : (4 : Int) < (k : Int) := by omega
      have HF : Hid (q = L) := Lib.hid (by have := HQ.out; omega)
      clear hk4
      go_wp2_with fail
      go_ret
      exact ⟨ret_int (by rw [HF.out]), hB⟩

/-! ### Rsc -/

theorem rWholeAny (s : ByteArray) (h0 : 0 < s.size) (hs : s.size ≤ maxLen) (w : World) :
    Calls Tryd.prog 76 #[.string s] w fun e w' => e = .returned (.bool ((decide ((s.size : Int) ≤ wantZ ((s[0]'h0).toNat : Int)) && contB ((s[0]'h0).toNat : Int) (s.data.toList.drop 1) 1) && (wantZ ((s[0]'h0).toNat : Int) == (s.size : Int)))) ∧ Below w.heap.size w w' := by
  have HB := Lib.hid (rBeginsAny s h0 hs)
  unfold maxLen at hs
  have hI : (0 : Int) < (s.size : Int) := by omega
  have HW := Lib.hid (rWant ((s[0]'h0).toNat : Int))
  generalize (decide ((s.size : Int) ≤ wantZ ((s[0]'h0).toNat : Int)) && contB ((s[0]'h0).toNat : Int) (s.data.toList.drop 1) 1) = v at HB ⊢
  cases hq : (wantZ ((s[0]'h0).toNat : Int) == (s.size : Int))
  all_goals cases v
  all_goals
    go_enter Tryd.func76, Tryd.ntmps76
    go_wp2_with fail
    refine (HB.out _).mono ?_
    rintro e w1 ⟨rfl, hb1⟩
    go_wp2_with (go_at_call 82; refine (HW.out _).mono ?_; rintro e w' ⟨rfl, rfl⟩)
    go_ret
    exact ⟨rfl, by assumption⟩

def scN : Int → List UInt8 → Int
  | n, [] => n
  | n, x :: t => scN (64 * n + x.toNat - 128) t
def offL (k : Nat) : Int := if k = 2 then 192 else if k = 3 then 224 else if k = 4 then 240 else 0
theorem rScalar (s : ByteArray) (h0 : 0 < s.size) (h4 : s.size ≤ 4) (w : World) :
    Calls Tryd.prog 77 #[.string s] w fun e w' => e = .returned (.int .i32 (scN (((s[0]'h0).toNat : Int) - offL s.size) (s.data.toList.drop 1))) ∧ Below w.heap.size w w' := by
  obtain ⟨res, hres⟩ : ∃ res, res = scN (((s[0]'h0).toNat : Int) - offL s.size) (s.data.toList.drop 1) := ⟨_, rfl⟩
  rw [← hres]
  have hI : (0 : Int) < (s.size : Int) := by omega
  have b0 : (0 : Int) ≤ ((s[0]'h0).toNat : Int) := by omega
  have b1 : ((s[0]'h0).toNat : Int) ≤ 255 := by have := (s[0]'h0).toNat_lt; omega
  have hcs : (((s.size : Int) == 2) = true ∧ offL s.size = 192) ∨ (((s.size : Int) == 2) = false ∧ ((s.size : Int) == 3) = true ∧ offL s.size = 224) ∨ (((s.size : Int) == 2) = false ∧ ((s.size : Int) == 3) = false ∧ ((s.size : Int) == 4) = true ∧ offL s.size = 240) ∨ (((s.size : Int) == 2) = false ∧ ((s.size : Int) == 3) = false ∧ ((s.size : Int) == 4) = false ∧ offL s.size = 0) := by
    have : s.size = 1 ∨ s.size = 2 ∨ s.size = 3 ∨ s.size = 4 := by omega
    rcases this with h | h | h | h <;> rw [h] <;> decide
  rcases hcs with ⟨q1, ho⟩ | ⟨q1, q2, ho⟩ | ⟨q1, q2, q3, ho⟩ | ⟨q1, q2, q3, ho⟩
  all_goals
    rw [ho] at hres
    have HR := Lib.hid hres
    clear hres ho
    go_enter Tryd.func77, Tryd.ntmps77
    go_wp2_with fail
    go_loop [3, 4] (fun n i => ∃ (k : Nat) (v : Int), n = .int .i64 v ∧ i = .int .i64 k ∧ 1 ≤ k ∧ k ≤ s.size ∧ scN v (s.data.toList.drop k) = res ∧ ((k = 1 ∧ -300 ≤ v ∧ v ≤ 300) ∨ (k = 2 ∧ -20000 ≤ v ∧ v ≤ 20000) ∨ (k = 3 ∧ -1300000 ≤ v ∧ v ≤ 1300000) ∨ (k = 4 ∧ -84000000 ≤ v ∧ v ≤ 84000000))) (fun _ i => s.size - (intOf i).toNat)
    case atStart => exact ⟨1, _, by first | rfl | (simp; done), rfl, Nat.le_refl _, h0, by first | exact HR.out.symm | (have := HR.out; simp at this; exact this.symm), .inl ⟨rfl, by omega, by omega⟩⟩
    case round =>
      obtain ⟨k, v, rfl, rfl, hk1, hk, hd, hbd⟩ := hrel
      have v0 : -84000000 ≤ v := by omega
      have v1 : v ≤ 84000000 := by omega
      by_cases hlt : k < s.size
      · rw [drop_byte s k hlt, scN] at hd
        have HD := Lib.hid hd
        have hI2 : (k : Int) < (s.size : Int) := by omega
        have x0 : (0 : Int) ≤ ((s[k]'hlt).toNat : Int) := by omega
        have x1 : ((s[k]'hlt).toNat : Int) ≤ 255 := by have := (s[k]'hlt).toNat_lt; omega
        clear hd
        have HBD := Lib.hid hbd
        clear hbd
        go_wp2_with fail
        go_round
        case rel => exact ⟨k + 1, 64 * v + ((s[k]'hlt).toNat : Int) - 128, by first | rfl | go_num, by go_num, by omega, by omega, HD.out, by have := HBD.out; omega⟩
        case measure => simp [intOf]; omega
      · rw [drop_end s k (by omega), scN] at hd
        have HD := Lib.hid hd
        clear hd hbd
        go_wp2_with fail
        go_ret
        exact ⟨ret_int (by rw [← HD.out]), Below.refl _ _⟩

/-! ### Rde -/

theorem info_i32 : (Tryd.prog.info? 21).map (fun i => (i.zero, i.size, i.bytes)) = some (some (.int .i32 0), 1, 4) := by kernel_rfl
def i32c (l : List Int) : List Value := l.map fun r => Value.int .i32 r
/-- The scalar value that a piece stands for. -/
def runeOf (q : List UInt8 × Bool) : Int := if q.2 then (match q.1 with | [] => 0 | b :: t => scN ((b.toNat : Int) - offL (1 + t.length)) t) else 65533
def runesL (l : List UInt8) : List Int := (piecesL l).map runeOf

/-- What the document's functions answer at the first piece. -/
theorem piece_scalar (s : ByteArray) (h0 : 0 < s.size) (hs : s.size ≤ 400000) : ∃ L : Nat, L = (measTab encT (s[0]'h0) (s.data.toList.drop 1)).1 ∧ 1 ≤ L ∧ L ≤ 4 ∧ L ≤ s.size ∧
    (∀ w : World, Calls Tryd.prog 76 #[.string (s.extract 0 L)] w fun e w' => e = .returned (.bool (measTab encT (s[0]'h0) (s.data.toList.drop 1)).2) ∧ Below w.heap.size w w') ∧
    (∀ w : World, Calls Tryd.prog 77 #[.string (s.extract 0 L)] w fun e w' => e = .returned (.int .i32 (scN (((s[0]'h0).toNat : Int) - offL L) ((s.data.toList.drop 1).take (L - 1)))) ∧ Below w.heap.size w w') := by
  have hp := measTab_pos encT (s[0]'h0) (s.data.toList.drop 1)
  have h4 := measEnc_le (s[0]'h0) (s.data.toList.drop 1)
  have hl : (s.data.toList.drop 1).length + 1 = s.size := by rw [List.length_drop, size_list]; omega
  have hfw := first_whole (s[0]'h0) (s.data.toList.drop 1)
  have hpl := piece_len (s[0]'h0) (s.data.toList.drop 1) ((measTab encT (s[0]'h0) (s.data.toList.drop 1)).1 - 1)
  obtain ⟨b0, b4⟩ := wantZ_bd ((s[0]'h0).toNat : Int)
  generalize hm : measTab encT (s[0]'h0) (s.data.toList.drop 1) = M at hp h4 hfw hpl
  obtain ⟨L, ok⟩ := M
  dsimp only at hp h4 hfw hpl
  have xs : (s.extract 0 L).size = L := by rw [ByteArray.size_extract]; omega
  have x0 : 0 < (s.extract 0 L).size := by omega
  have e1 := drop_byte s 0 h0
  rw [List.drop_zero, Nat.zero_add] at e1
  have e2 : (s.extract 0 L).data.toList = s[0]'h0 :: (s.data.toList.drop 1).take (L - 1) := by
    rw [Lib.extract_data, List.drop_zero, Nat.sub_zero]
    conv => lhs; rw [e1]
    obtain ⟨j, rfl⟩ : ∃ j, L = j + 1 := ⟨L - 1, by omega⟩
    rfl
  have e3 := drop_byte (s.extract 0 L) 0 x0
  rw [List.drop_zero, Nat.zero_add, e2] at e3
  injection e3 with e4 e5
  refine ⟨L, rfl, hp.1, h4, by omega, ?_, ?_⟩
  · intro w
    have h := rWholeAny (s.extract 0 L) x0 (by unfold maxLen; omega) w
    rw [← e4, e2, xs, List.drop_succ_cons, List.drop_zero] at h
    have hv : (decide ((L : Int) ≤ wantZ ((s[0]'h0).toNat : Int)) && contB ((s[0]'h0).toNat : Int) ((s.data.toList.drop 1).take (L - 1)) 1 && (wantZ ((s[0]'h0).toNat : Int) == (L : Int))) = ok := by
      obtain ⟨f1, f2⟩ := hfw
      cases ok with
      | true =>
        have f3 := f2 rfl
        have f4 := f1.symm
        rw [← f3] at f4 ⊢
        rw [Int.toNat_natCast] at f4
        simp only [Bool.and_eq_true] at f4
        rw [f4.2]
        simp
      | false =>
        cases hq : (wantZ ((s[0]'h0).toNat : Int) == (L : Int)) with
        | false => rw [Bool.and_false]
        | true =>
          have hq2 : wantZ ((s[0]'h0).toNat : Int) = (L : Int) := eq_of_beq hq
          rw [hq2, Int.toNat_natCast] at f1
          have g1 : decide (¬ (L : Int) = 0) = true := by simp; omega
          have g2 : decide ((L : Int) ≤ 1 + ((s.data.toList.drop 1).length : Int)) = true := by simp only [decide_eq_true_eq]; omega
          rw [g1, g2, Bool.true_and, Bool.true_and] at f1
          rw [← f1]
          simp
    rw [hv] at h
    exact h
  · intro w
    have h := rScalar (s.extract 0 L) x0 (by omega) w
    rw [← e4, e2, xs, List.drop_succ_cons, List.drop_zero] at h
    exact h

theorem one_oneI (x : Int) : ∀ u ∈ [Value.int .i32 x], u.oneCell' = true := by
  intro u hu
  simp at hu
  subst hu
  rfl
theorem runesL_cons (b : UInt8) (t : List UInt8) : runesL (b :: t) = runeOf ((b :: t).take (measTab encT b t).1, (measTab encT b t).2) :: runesL ((b :: t).drop (measTab encT b t).1) := by
  unfold runesL
  rw [piecesL_cons]
  rfl

theorem own_below {W W' : World} {B e size n : Nat} {v : Value} {xs : List Value} (h : W.ownsRow B e size v n xs) (hb : Below W.heap.size W W') : W'.ownsRow B e size v n xs :=
  h.kept (row := none) ⟨hb.os, hb.tape, hb.output, hb.size, fun i hi _ => hb.block i hi⟩ (by
    rcases h.2 with ⟨rfl, _⟩ | ⟨g, cap, cur, rfl, _⟩
    · exact .inl rfl
    · exact .inr (by simp [Value.ownBlock]))

theorem rDecode (s : ByteArray) (hs : s.size ≤ 100000) (w : World) :
    Calls Tryd.prog 23 #[.string s] w fun e w' => ∃ v, e = .returned v ∧ w'.ownsRow w.heap.size 21 1 v (runesL s.data.toList).length (i32c (runesL s.data.toList)) ∧ Below w.heap.size w w' := by
  obtain ⟨i0, hi, hz0, hz1, hz2⟩ := info_parts info_i32
  obtain ⟨R, hR⟩ : ∃ R, R = runesL s.data.toList := ⟨_, rfl⟩
  rw [← hR]
  have HR := Lib.hid hR
  clear hR
  go_enter Tryd.func23, Tryd.ntmps23
  go_wp2_with fail
  go_loopw [3, 0] (fun v u wr => ∃ (r : ByteArray) (n : Nat) (pre : List Int), u = .string r ∧ pre.length = n ∧ pre ++ runesL r.data.toList = R ∧ n + r.size ≤ s.size ∧ wr.ownsRow w.heap.size 21 1 v n (i32c pre) ∧ Below w.heap.size w wr) (fun _ u _ => szOf u)
  case atStart => exact ⟨s, 0, [], rfl, rfl, HR.out.symm, by omega, World.ownsRow_nil _ _ _ _, Below.refl _ _⟩
  case round =>
    obtain ⟨r, n, pre, rfl, hln, hpre, hsz, hown, hB⟩ := hrel
    have HLN := Lib.hid hln
    have HP := Lib.hid hpre
    clear hln hpre
    have hsB := hB.size
    by_cases h0 : 0 < r.size
    · have hI : (0 : Int) < (r.size : Int) := by omega
      have HPI := Lib.hid (rPiece r h0 (by omega))
      obtain ⟨L, hL, l1, l4, lz, hwh, hsc⟩ := piece_scalar r h0 (by omega)
      rw [← hL] at HPI
      have e1 := drop_byte r 0 h0
      rw [List.drop_zero, Nat.zero_add] at e1
      have hlz : (L : Int) ≤ (r.size : Int) := by omega
      have hl1 : (1 : Int) ≤ (L : Int) := by omega
      have hx : (r.extract L r.size).data.toList = r.data.toList.drop L := by
        rw [Lib.extract_data]
        exact List.take_of_length_le (by rw [List.length_drop, Array.length_toList]; exact Nat.le_refl _)
      have hstep : ∀ x, x = runeOf ((r[0]'h0 :: r.data.toList.drop 1).take L, (measTab encT (r[0]'h0) (r.data.toList.drop 1)).2) → pre ++ [x] ++ runesL (r.extract L r.size).data.toList = R := by
        intro x hx2
        have h := HP.out
        rw [e1, runesL_cons, ← hL, ← hx2, ← e1, ← hx] at h
        rw [← h]
        simp
      have hval : runeOf ((r[0]'h0 :: r.data.toList.drop 1).take L, true) = scN (((r[0]'h0).toNat : Int) - offL L) ((r.data.toList.drop 1).take (L - 1)) := by
        obtain ⟨j, rfl⟩ : ∃ j, L = j + 1 := ⟨L - 1, by omega⟩
        have hlen : (r.data.toList.drop 1).length + 1 = r.size := by rw [List.length_drop, size_list]; omega
        show scN (((r[0]'h0).toNat : Int) - offL (1 + ((r.data.toList.drop 1).take j).length)) _ = _
        rw [List.length_take, Nat.min_eq_left (by omega), Nat.add_comm 1 j]
        rfl
      rw [← hval] at hsc
      have HSC := Lib.hid hsc
      have HWH := Lib.hid hwh
      have HST := Lib.hid hstep
      clear hsc hwh hstep hval e1 hx hL
      obtain ⟨x, hx2⟩ : ∃ x, x = runeOf ((r[0]'h0 :: r.data.toList.drop 1).take L, true) := ⟨_, rfl⟩
      rw [← hx2] at HSC
      have HX := Lib.hid hx2
      clear hx2
      cases hok : (measTab encT (r[0]'h0) (r.data.toList.drop 1)).2 with
      | true =>
        rw [hok] at HWH
        have HS : Hid (pre ++ [x] ++ runesL (r.extract L r.size).data.toList = R) := Lib.hid (HST.out x (by rw [hok]; exact HX.out))
        clear hok
        go_wp2_with fail
        refine (HPI.out _).mono ?_
        rintro e w1 ⟨rfl, hb1⟩
        have hb1x := below_next hB hb1
        have own1 := own_below hown hb1
        go_wp2_with fail
        refine (HWH.out _).mono ?_
        rintro e w2 ⟨rfl, hb2⟩
        have hb2x := below_next hb1x hb2
        have own2 := own_below own1 hb2
        clear hown own1 hb1 hb1x hB
        go_wp2_with fail
        refine (HSC.out _).mono ?_
        rintro e w3 ⟨rfl, hb3⟩
        have hb3x := below_next hb2x hb3
        have own3 := own_below own2 hb3
        have hs3 := hb3x.size
        clear own2 hb2 hb3 hb2x
        go_wp2_with (first | (at_builtin; refine wpList_append_own _ rfl _ _ 24 rfl w.heap.size 21 i0 (.int .i32 0) 1 4 Tryd.underlying24 hi hz0 hz1 hz2 rfl (by decide) _ _ _ rfl (own3.alloc _) ⟨_, 0, none⟩ 1 1 [.int .i32 x] rfl rfl (one_cell _ _ _) (one_oneI _) (by unfold maxLen; omega) (by omega) (by simp; omega) ?_; intro v' w9 hown' hgrow _))
        have hB' := own_grown hb3x own3 rfl hgrow
        have HO : Hid (w9.ownsRow w.heap.size 21 1 v' (n + 1) (i32c (pre ++ [x]))) := Lib.hid (by
          have := hown'
          simpa [i32c] using this)
        clear hown' hgrow
        go_wp2
        go_roundw
        case rel => exact ⟨r.extract L r.size, n + 1, pre ++ [x], rfl, by have := HLN.out; simp; omega, HS.out, by rw [ByteArray.size_extract]; omega, HO.out, hB'⟩
        case measure => simp [szOf, ByteArray.size_extract]; omega
      | false =>
        rw [hok] at HWH
        have HS : Hid (pre ++ [65533] ++ runesL (r.extract L r.size).data.toList = R) := Lib.hid (HST.out 65533 (by rw [hok]; rfl))
        clear hok
        go_wp2_with fail
        refine (HPI.out _).mono ?_
        rintro e w1 ⟨rfl, hb1⟩
        have hb1x := below_next hB hb1
        have own1 := own_below hown hb1
        go_wp2_with fail
        refine (HWH.out _).mono ?_
        rintro e w2 ⟨rfl, hb2⟩
        have hb2x := below_next hb1x hb2
        have own2 := own_below own1 hb2
        have hs2 := hb2x.size
        clear hown own1 hb1 hb2 hb1x hB
        go_wp2_with (first | (at_builtin; refine wpList_append_own _ rfl _ _ 24 rfl w.heap.size 21 i0 (.int .i32 0) 1 4 Tryd.underlying24 hi hz0 hz1 hz2 rfl (by decide) _ _ _ rfl (own2.alloc _) ⟨_, 0, none⟩ 1 1 [.int .i32 65533] rfl rfl (one_cell _ _ _) (one_oneI _) (by unfold maxLen; omega) (by omega) (by simp; omega) ?_; intro v' w9 hown' hgrow _))
        have hB' := own_grown hb2x own2 rfl hgrow
        have HO : Hid (w9.ownsRow w.heap.size 21 1 v' (n + 1) (i32c (pre ++ [65533]))) := Lib.hid (by
          have := hown'
          simpa [i32c] using this)
        clear hown' hgrow
        go_wp2
        go_roundw
        case rel => exact ⟨r.extract L r.size, n + 1, pre ++ [65533], rfl, by have := HLN.out; simp; omega, HS.out, by rw [ByteArray.size_extract]; omega, HO.out, hB'⟩
        case measure => simp [szOf, ByteArray.size_extract]; omega
    · have e0 : r.data.toList = [] := List.length_eq_zero_iff.1 (by rw [size_list]; omega)
      have hl : pre = R := by
        have := HP.out
        rw [e0] at this
        simpa [runesL, piecesL, piecesF] using this
      have hown2 := hown
      rw [← HLN.out, hl] at hown2
      have HOW := Lib.hid hown2
      clear hown2 hown hl e0
      go_wp2
      go_ret
      exact ⟨_, rfl, HOW.out, hB⟩
end Go.Proofs.YtdphkjhfeobhaaaDoor
