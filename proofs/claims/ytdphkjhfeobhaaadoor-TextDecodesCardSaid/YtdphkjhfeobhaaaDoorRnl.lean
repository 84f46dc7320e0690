/-
  The document's own line ends.
-/
import Derived.Test.YtdphkjhfeobhaaaDoorRlo
namespace Go.Proofs.YtdphkjhfeobhaaaDoor
open Go.RowKit
set_option maxHeartbeats 1000000
set_option maxRecDepth 100000

def nlR : List UInt8 → List UInt8
  | [] => []
  | [b] => if b = 13 then [10] else [b]
  | b :: x :: t => if b = 13 then (if x = 10 then nlR (x :: t) else 10 :: nlR (x :: t)) else b :: nlR (x :: t)
theorem nlR_b (b : UInt8) (t : List UInt8) (h : ¬ b = 13) : nlR (b :: t) = b :: nlR t := by
  cases t with
  | nil => simp [nlR, h]
  | cons x t => rw [nlR, if_neg h]
theorem nlR_skip (t : List UInt8) : nlR (13 :: 10 :: t) = nlR (10 :: t) := by rw [nlR, if_pos rfl, if_pos rfl]
theorem nlR_10 (t : List UInt8) (h : ¬ t.head? = some 10) : nlR (13 :: t) = 10 :: nlR t := by
  cases t with
  | nil => rfl
  | cons x t => rw [nlR, if_pos rfl, if_neg (by simpa using h)]
theorem newL_nlR : ∀ (n : Nat) (l : List UInt8), l.length ≤ n → newL l = nlR l
  | _, [], _ => rfl
  | _, [b], _ => by
    unfold newL rep1
    rw [rep2, nlR]
    simp
  | 0, b :: x :: t, h => by simp at h
  | n + 1, b :: x :: t, h => by
    have i1 := newL_nlR n (x :: t) (by simp at h ⊢; omega)
    have i2 := newL_nlR n t (by simp at h ⊢; omega)
    unfold newL at i1 i2 ⊢
    rw [rep2]
    by_cases hb : b = 13
    · subst hb
      by_cases hx : x = 10
      · subst hx
        rw [if_pos ⟨rfl, rfl⟩, nlR_skip, nlR_b 10 t (by decide), ← i2]
        rfl
      · rw [if_neg (by simp [hx]), nlR_10 _ (by simpa using hx), ← i1]
        rfl
    · rw [if_neg (by simp [hb]), nlR_b b _ hb, ← i1]
      show rep1 13 [10] (b :: _) = _
      unfold rep1
      rw [List.flatMap_cons, if_neg hb]
      rfl
theorem nlR_no (n : Nat) : ∀ (l : List UInt8), l.length ≤ n → ∀ x ∈ nlR l, x ≠ 13 := by
  induction n with
  | zero =>
    intro l h
    have : l = [] := List.length_eq_zero_iff.1 (by omega)
    subst this
    simp [nlR]
  | succ n ih =>
    intro l h
    cases l with
    | nil => simp [nlR]
    | cons b t =>
      have i1 := ih t (by simp at h; omega)
      by_cases hb : b = 13
      · subst hb
        by_cases ht : t.head? = some 10
        · cases t with
          | nil => simp at ht
          | cons x t =>
            simp at ht
            subst ht
            rw [nlR_skip]
            exact i1
        · rw [nlR_10 t ht]
          intro x hx
          rw [List.mem_cons] at hx
          rcases hx with rfl | hx
          · decide
          · exact i1 x hx
      · rw [nlR_b b t hb]
        intro x hx
        rw [List.mem_cons] at hx
        rcases hx with rfl | hx
        · exact hb
        · exact i1 x hx
theorem nlR_same : ∀ l : List UInt8, (∀ x ∈ l, x ≠ 13) → nlR l = l
  | [], _ => rfl
  | b :: t, h => by rw [nlR_b b t (h b (by simp)), nlR_same t fun x hx => h x (by simp [hx])]
theorem nlR_len (n : Nat) : ∀ (l : List UInt8), l.length ≤ n → (nlR l).length ≤ l.length := by
  induction n with
  | zero =>
    intro l h
    have : l = [] := List.length_eq_zero_iff.1 (by omega)
    subst this
    simp [nlR]
  | succ n ih =>
    intro l h
    cases l with
    | nil => simp [nlR]
    | cons b t =>
      have i1 := ih t (by simp at h; omega)
      by_cases hb : b = 13
      · subst hb
        by_cases ht : t.head? = some 10
        · cases t with
          | nil => simp at ht
          | cons x t =>
            simp at ht
            subst ht
            rw [nlR_skip, List.length_cons]
            omega
        · rw [nlR_10 t ht, List.length_cons, List.length_cons]
          omega
      · rw [nlR_b b t hb, List.length_cons, List.length_cons]
        omega

theorem one_cell (w : World) (t : TypeId) (v : Value) : ∀ (j : Nat) (u : Value), [v][j]? = some u → (w.alloc (.cells #[v] t)).cell? ((⟨w.heap.size, 0, none⟩ : Addr).add j) = some u := by
  intro j u hj
  match j, hj with
  | 0, hj => simp at hj; subst hj; simp [Addr.add]
theorem one_one (x : Int) : ∀ u ∈ [Value.int .u8 x], u.oneCell' = true := by
  intro u hu
  simp at hu
  subst hu
  rfl

def nlS (s : ByteArray) : ByteArray := ⟨(nlR s.data.toList).toArray⟩

theorem rNewlines (s : ByteArray) (hs : s.size ≤ 200000) (w : World) :
    Calls Tryd.prog 32 #[.string s] w fun e w' => e = .returned (.string (nlS s)) ∧ Below w.heap.size w w' := by
  obtain ⟨i0, hi, hz0, hz1, hz2⟩ := info_parts info_u8
  obtain ⟨R, hR⟩ : ∃ R, R = nlR s.data.toList := ⟨_, rfl⟩
  have hRS : nlS s = ⟨R.toArray⟩ := by unfold nlS; rw [hR]
  rw [hRS]
  have HR := Lib.hid hR
  clear hR hRS
  go_enter Tryd.func32, Tryd.ntmps32
  go_wp2_with fail
  go_loopw [3, 4] (fun v i wr => ∃ (k n : Nat) (pre : List UInt8), k ≤ s.size ∧ n ≤ k ∧ i = .int .i64 k ∧ pre.length = n ∧ pre ++ nlR (s.data.toList.drop k) = R ∧ wr.ownsRow w.heap.size 5 1 v n (u8c pre) ∧ Below w.heap.size w wr) (fun _ i _ => s.size - (intOf i).toNat)
  case atStart => exact ⟨0, 0, [], Nat.zero_le _, Nat.zero_le _, rfl, rfl, HR.out.symm, World.ownsRow_nil _ _ _ _, Below.refl _ _⟩
  case round =>
    obtain ⟨k, n, pre, hk, hn, rfl, hln, hpre, hown, hB⟩ := hrel
    have HLN := Lib.hid hln
    have HP := Lib.hid hpre
    clear hln hpre
    have hsz := hB.size
    by_cases hlt : k < s.size
    · have hb0 : (0 : Int) ≤ ((s[k]'hlt).toNat : Int) := by omega
      have hb1 : ((s[k]'hlt).toNat : Int) ≤ 255 := by have := (s[k]'hlt).toNat_lt; omega
      have hI : (k : Int) < (s.size : Int) := by omega
      have HD := Lib.hid (drop_byte s k hlt)
      by_cases hb : s[k]'hlt = 13
      · have hq : (((s[k]'hlt).toNat : Int) == 13) = true := by rw [hb]; rfl
        have HB := Lib.hid hb
        clear hb
        by_cases hlt2 : k + 1 < s.size
        · have hI2 : (k : Int) + 1 < (s.size : Int) := by omega
          have HD2 := Lib.hid (drop_byte s (k + 1) hlt2)
          by_cases hx : s[k + 1]'hlt2 = 10
          · have hq2 : (((s[k + 1]'hlt2).toNat : Int) == 10) = true := by rw [hx]; rfl
            have HX := Lib.hid hx
            clear hx
            go_wp2_with fail
            go_roundw
            case rel => exact ⟨k + 1, n, pre, by omega, by omega, by go_num, HLN.out, by rw [← HP.out, HD.out, HD2.out, HB.out, HX.out, nlR_skip], hown, hB⟩
            case measure => simp [intOf]; omega
          · have hq2 : (((s[k + 1]'hlt2).toNat : Int) == 10) = false := by
              rw [beq_eq_false_iff_ne]
              intro e
              exact hx (UInt8.toNat_inj.mp (by show _ = 10; omega))
            have HX := Lib.hid hx
            have HS : Hid (pre ++ [10] ++ nlR (s.data.toList.drop (k + 1)) = R) := Lib.hid (by
              rw [← HP.out, HD.out, HB.out, nlR_10 _ (by rw [HD2.out]; simpa using HX.out)]
              simp)
            clear hx
            go_wp2_with (first
          | (at_builtin; refine wpList_append_own _ rfl _ _ 32 rfl w.heap.size 5 i0 (.int .u8 0) 1 1 Tryd.underlying32 hi hz0 hz1 hz2 rfl (by decide) _ _ _ rfl (hown.alloc _) ⟨_, 0, none⟩ 1 1 [.int .u8 10] rfl rfl (one_cell _ _ _) (one_one _) (by unfold maxLen; omega) (by omega) (by simp; omega) ?_; intro v' w1 hown' hgrow _))
            have hB' := own_grown hB hown rfl hgrow
            have HO : Hid (w1.ownsRow w.heap.size 5 1 v' (n + 1) (u8c (pre ++ [10]))) := Lib.hid (by
              have := hown'
              simpa [u8c] using this)
            clear hown' hgrow hown hB
            go_wp2
            go_roundw
            case rel => exact ⟨k + 1, n + 1, pre ++ [10], by omega, by omega, by go_num, by have := HLN.out; simp; omega, HS.out, HO.out, hB'⟩
            case measure => simp [intOf]; omega
        · have hI2 : ¬ (k : Int) + 1 < (s.size : Int) := by omega
          have HS : Hid (pre ++ [10] ++ nlR (s.data.toList.drop (k + 1)) = R) := Lib.hid (by
            rw [← HP.out, HD.out, HB.out, drop_end s (k + 1) (by omega)]
            simp [nlR])
          go_wp2_with (first
          | (at_builtin; refine wpList_append_own _ rfl _ _ 32 rfl w.heap.size 5 i0 (.int .u8 0) 1 1 Tryd.underlying32 hi hz0 hz1 hz2 rfl (by decide) _ _ _ rfl (hown.alloc _) ⟨_, 0, none⟩ 1 1 [.int .u8 10] rfl rfl (one_cell _ _ _) (one_one _) (by unfold maxLen; omega) (by omega) (by simp; omega) ?_; intro v' w1 hown' hgrow _))
          have hB' := own_grown hB hown rfl hgrow
          have HO : Hid (w1.ownsRow w.heap.size 5 1 v' (n + 1) (u8c (pre ++ [10]))) := Lib.hid (by
            have := hown'
            simpa [u8c] using this)
          clear hown' hgrow hown hB
          go_wp2
          go_roundw
          case rel => exact ⟨k + 1, n + 1, pre ++ [10], by omega, by omega, by go_num, by have := HLN.out; simp; omega, HS.out, HO.out, hB'⟩
          case measure => simp [intOf]; omega
      · have hq : (((s[k]'hlt).toNat : Int) == 13) = false := by
          rw [beq_eq_false_iff_ne]
          intro e
          exact hb (UInt8.toNat_inj.mp (by show _ = 13; omega))
        have HS : Hid (pre ++ [s[k]'hlt] ++ nlR (s.data.toList.drop (k + 1)) = R) := Lib.hid (by
          rw [← HP.out, HD.out, nlR_b _ _ hb]
          simp)
        clear hb
        go_wp2_with (first
          | (at_builtin; refine wpList_append_own _ rfl _ _ 32 rfl w.heap.size 5 i0 (.int .u8 0) 1 1 Tryd.underlying32 hi hz0 hz1 hz2 rfl (by decide) _ _ _ rfl (hown.alloc _) ⟨_, 0, none⟩ 1 1 [.int .u8 ((s[k]'hlt).toNat : Int)] rfl rfl (one_cell _ _ _) (one_one _) (by unfold maxLen; omega) (by omega) (by simp; omega) ?_; intro v' w1 hown' hgrow _))
        have hB' := own_grown hB hown rfl hgrow
        have HO : Hid (w1.ownsRow w.heap.size 5 1 v' (n + 1) (u8c (pre ++ [s[k]'hlt]))) := Lib.hid (by
          have := hown'
          simpa [u8c] using this)
        clear hown' hgrow hown hB
        go_wp2
        go_roundw
        case rel => exact ⟨k + 1, n + 1, pre ++ [s[k]'hlt], by omega, by omega, by go_num, by have := HLN.out; simp; omega, HS.out, HO.out, hB'⟩
        case measure => simp [intOf]; omega
    · have hl : pre = R := by
        have := HP.out
        rw [drop_end s k (by omega)] at this
        simpa [nlR] using this
      have hown2 := hown
      rw [← HLN.out, hl] at hown2
      have hbk := bytes_back hown2
      clear hown2 hl
      go_wp2
      go_ret
      exact ⟨rfl, hB⟩
end Go.Proofs.YtdphkjhfeobhaaaDoor
