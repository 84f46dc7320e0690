/-
  The document's own reading of validity.
-/
import Derived.Test.YtdphkjhfeobhaaaDoorRvk
namespace Go.Proofs.YtdphkjhfeobhaaaDoor
open Go.RowKit
set_option maxHeartbeats 1000000
set_option maxRecDepth 100000

theorem rWhole (s : ByteArray) (h0 : 0 < s.size) (hs : s.size ≤ maxLen) (hw : wantZ ((s[0]'h0).toNat : Int) = (s.size : Int)) (w : World) :
    Calls Tryd.prog 76 #[.string s] w fun e w' => e = .returned (.bool (contB ((s[0]'h0).toNat : Int) (s.data.toList.drop 1) 1)) ∧ Below w.heap.size w w' := by
  have HB := Lib.hid (rBegins s h0 hs (by omega))
  unfold maxLen at hs
  have hI : (0 : Int) < (s.size : Int) := by omega
  have hq : (wantZ ((s[0]'h0).toNat : Int) == (s.size : Int)) = true := by rw [hw]; simp
  clear hw
  generalize contB ((s[0]'h0).toNat : Int) (s.data.toList.drop 1) 1 = v at HB ⊢
  cases v
  all_goals
    go_enter Tryd.func76, Tryd.ntmps76
    go_wp2_with fail
    refine (HB.out _).mono ?_
    rintro e w1 ⟨rfl, hb1⟩
    go_wp2_with (go_at_call 82; refine (rWant _ _).mono ?_; rintro e w' ⟨rfl, rfl⟩)
    go_ret
    exact ⟨rfl, by assumption⟩

theorem wantZ_bd (b : Int) : 0 ≤ wantZ b ∧ wantZ b ≤ 4 := by
  unfold wantZ
  (repeat' split) <;> omega
def okV (l : List UInt8) : Bool := (piecesL l).all fun q => q.2
theorem okV_cons (b : UInt8) (t : List UInt8) : okV (b :: t) = ((measTab encT b t).2 && okV ((b :: t).drop (measTab encT b t).1)) := by
  unfold okV
  rw [piecesL_cons, List.all_cons]
theorem okV_bad (b : UInt8) (t : List UInt8) (h : (wantZ (b.toNat : Int) = 0 ∨ 1 + (t.length : Int) < wantZ (b.toNat : Int)) ∨ contB (b.toNat : Int) (t.take ((wantZ (b.toNat : Int)).toNat - 1)) 1 = false) : okV (b :: t) = false := by
  rw [okV_cons, (first_whole b t).1]
  rcases h with (h | h) | h
  · simp [h]
  · have : decide (wantZ (b.toNat : Int) ≤ 1 + (t.length : Int)) = false := by simp; omega
    simp [this]
  · simp [h]
theorem okV_good (b : UInt8) (t : List UInt8) (n : Nat) (hn : wantZ (b.toNat : Int) = (n : Int)) (h0 : ¬ n = 0) (h1 : n ≤ 1 + t.length) (hc : contB (b.toNat : Int) (t.take (n - 1)) 1 = true) : okV (b :: t) = okV ((b :: t).drop n) := by
  have h := first_whole b t
  have h2 : (measTab encT b t).2 = true := by
    rw [h.1, hn, Int.toNat_natCast, hc]
    simp
    omega
  have h3 := h.2 h2
  rw [hn] at h3
  have h4 : (measTab encT b t).1 = n := by omega
  rw [okV_cons, h2, h4, Bool.true_and]

theorem rValid (s : ByteArray) (hs : s.size ≤ 400000) (w : World) :
    Calls Tryd.prog 30 #[.string s] w fun e w' => e = .returned (.bool (okV s.data.toList)) ∧ Below w.heap.size w w' := by
  obtain ⟨R, hR⟩ : ∃ R, R = okV s.data.toList := ⟨_, rfl⟩
  rw [← hR]
  have HR := Lib.hid hR
  clear hR
  go_enter Tryd.func30, Tryd.ntmps30
  go_wp2_with fail
  go_loopw [0] (fun v wr => ∃ r : ByteArray, v = .string r ∧ okV r.data.toList = R ∧ r.size ≤ 400000 ∧ Below w.heap.size w wr) (fun v _ => szOf v)
  case atStart => exact ⟨s, rfl, HR.out.symm, hs, Below.refl _ _⟩
  case round =>
    obtain ⟨r, rfl, hok, hrs, hB⟩ := hrel
    by_cases h0 : 0 < r.size
    · have hI : (0 : Int) < (r.size : Int) := by omega
      have e1 := drop_byte r 0 h0
      rw [List.drop_zero, Nat.zero_add] at e1
      have hlen : (r.data.toList.drop 1).length + 1 = r.size := by rw [List.length_drop, size_list]; omega
      rw [e1] at hok
      obtain ⟨b0, b4⟩ := wantZ_bd ((r[0]'h0).toNat : Int)
      obtain ⟨n, hn⟩ : ∃ n : Nat, wantZ ((r[0]'h0).toNat : Int) = (n : Int) := ⟨(wantZ ((r[0]'h0).toNat : Int)).toNat, by omega⟩
      have HW := Lib.hid (rWant ((r[0]'h0).toNat : Int))
      rw [hn] at HW
      have HN := Lib.hid hn
      have HOK := Lib.hid hok
      have HLEN := Lib.hid hlen
      have HE1 := Lib.hid e1
      rw [hn] at b0 b4
      clear hok hlen e1 hn
      by_cases hz : n = 0
      · have HF : Hid (false = R) := Lib.hid (by rw [← HOK.out]; exact (okV_bad _ _ (.inl (.inl (by rw [HN.out, hz]; rfl)))).symm)
        have hq : ((n : Int) == 0) = true := by rw [hz]; rfl
        clear hz
        go_wp2_with (go_at_call 82; refine (HW.out _).mono ?_; rintro e w' ⟨rfl, rfl⟩)
        go_ret
        exact ⟨ret_bool HF.out, hB⟩
      · have hq : ((n : Int) == 0) = false := by rw [beq_eq_false_iff_ne]; omega
        by_cases hbig : r.size < n
        · have HF : Hid (false = R) := Lib.hid (by rw [← HOK.out]; exact (okV_bad _ _ (.inl (.inr (by rw [HN.out]; have := HLEN.out; omega)))).symm)
          have hq2 : (r.size : Int) < (n : Int) := by omega
          clear hbig
          go_wp2_with (go_at_call 82; refine (HW.out _).mono ?_; rintro e w' ⟨rfl, rfl⟩)
          go_ret
          exact ⟨ret_bool HF.out, hB⟩
        · have hq2 : (n : Int) ≤ (r.size : Int) := by omega
          have xs : (r.extract 0 n).size = n := by rw [ByteArray.size_extract]; omega
          have x0 : 0 < (r.extract 0 n).size := by omega
          have e2 : (r.extract 0 n).data.toList = r[0]'h0 :: (r.data.toList.drop 1).take (n - 1) := by
            rw [Lib.extract_data, List.drop_zero, Nat.sub_zero, HE1.out]
            obtain ⟨k, rfl⟩ : ∃ k, n = k + 1 := ⟨n - 1, by omega⟩
            rfl
          have e3 := drop_byte (r.extract 0 n) 0 x0
          rw [List.drop_zero, Nat.zero_add, e2] at e3
          injection e3 with e4 e5
          have HWh := Lib.hid (rWhole (r.extract 0 n) x0 (by unfold maxLen; omega) (by rw [← e4, HN.out, xs]))
          rw [← e4] at HWh
          have e6 : (r.extract 0 n).data.toList.drop 1 = (r.data.toList.drop 1).take (n - 1) := by rw [e2]; rfl
          rw [e6] at HWh
          clear e2 e4 e5 e6 x0
          cases hc : contB ((r[0]'h0).toNat : Int) ((r.data.toList.drop 1).take (n - 1)) 1 with
          | false =>
            rw [hc] at HWh
            have HF : Hid (false = R) := Lib.hid (by rw [← HOK.out]; exact (okV_bad _ _ (.inr (by rw [HN.out, Int.toNat_natCast]; exact hc))).symm)
            clear hc
            go_wp2_with (go_at_call 82; refine (HW.out _).mono ?_; rintro e w' ⟨rfl, rfl⟩)
            refine (HWh.out _).mono ?_
            rintro e w1 ⟨rfl, hb1⟩
            have hb1 := below_next hB hb1
            go_wp2_with fail
            go_ret
            exact ⟨ret_bool HF.out, hb1⟩
          | true =>
            rw [hc] at HWh
            have HF : Hid (okV (r.extract n r.size).data.toList = R) := Lib.hid (by
              rw [← HOK.out, okV_good _ _ n HN.out hz (by have := HLEN.out; omega) hc, ← HE1.out, Lib.extract_data]
              congr 1
              exact List.take_of_length_le (by rw [List.length_drop, Array.length_toList]; exact Nat.le_refl _))
            clear hc
            go_wp2_with (go_at_call 82; refine (HW.out _).mono ?_; rintro e w' ⟨rfl, rfl⟩)
            refine (HWh.out _).mono ?_
            rintro e w1 ⟨rfl, hb1⟩
            have hb1 := below_next hB hb1
            go_wp2_with fail
            go_roundw
            case rel => exact ⟨r.extract n r.size, rfl, HF.out, by rw [ByteArray.size_extract]; omega, hb1⟩
            case measure => simp [szOf, ByteArray.size_extract]; omega
    · have e0 : r.data.toList = [] := List.length_eq_zero_iff.1 (by rw [size_list]; omega)
      rw [e0] at hok
      have HOK : Hid (true = R) := Lib.hid hok
      clear hok e0
      go_wp2_with fail
      go_ret
      exact ⟨ret_bool HOK.out, hB⟩
end Go.Proofs.YtdphkjhfeobhaaaDoor
