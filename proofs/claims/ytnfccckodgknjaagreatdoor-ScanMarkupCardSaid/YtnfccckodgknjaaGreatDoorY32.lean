/-
  The document's readers: offsets, the rule for U+0000, and what stands ahead of a mark.
  The document's readers of comments, bogus comments and CDATA sections.
-/
import Derived.Test.YtnfccckodgknjaaGreatDoorY30
import Derived.Test.YtnfccckodgknjaaGreatDoorY31
import Derived.Test.YtnfccckodgknjaaGreatDoorY24
namespace Go.Proofs.YtnfccckodgknjaaGreatDoor
open Go.RowKit Go.Shelf Go.Lib
set_option maxHeartbeats 2000000
set_option maxRecDepth 100000

theorem qClip (s : ByteArray) (a : Int) (w : World) : Calls Tryz.prog 68 #[.string s, .int .i64 a] w fun e w' => e = .returned (.int .i64 (clip s a : Nat)) ∧ w' = w := by
  go_enter Tryz.func68, Tryz.ntmps68
  go_wp2
  go_ret
  exact ⟨ret_int (by unfold clip; omega), rfl⟩

theorem nul_take (s : ByteArray) (k : Nat) (h : k < s.size) : bl (nulL (s.data.toList.take (k + 1))) = bl (nulL (s.data.toList.take k)) ++ bl (nul1 (s[k]'h)) := by
  have e : s.data.toList[k]? = some (s[k]'h) := by
    rw [Array.getElem?_toList]
    exact Array.getElem?_eq_getElem (xs := s.data) h
  rw [List.take_add_one, e, nulL_app]
  show bl (nulL (s.data.toList.take k) ++ nulL [s[k]'h]) = _
  rw [nulL_cons, nulL_nil, List.append_nil]
  unfold bl
  ext1
  simp

theorem qNul (s : ByteArray) (hs : s.size ≤ 1000000) (w : World) : Calls Tryz.prog 71 #[.string s] w fun e w' => e = .returned (.string (bl (nulL s.data.toList))) ∧ w' = w := by
  have HSZ := Lib.hid hs
  clear hs
  go_enter Tryz.func71, Tryz.ntmps71
  go_wp2_with fail
  go_loop [3, 4] (fun v i => ∃ k : Nat, k ≤ s.size ∧ i = .int .i64 k ∧ v = .string (bl (nulL (s.data.toList.take k)))) (fun _ i => s.size - (intOf i).toNat)
  case atStart => exact ⟨0, Nat.zero_le _, rfl, rfl⟩
  case round =>
    obtain ⟨k, hk, rfl, rfl⟩ := hrel
    by_cases hlt : k < s.size
    · have hI : (k : Int) < (s.size : Int) := by omega
      have hst := nul_take s k hlt
      have hz : (bl (nulL (s.data.toList.take k))).size ≤ 3000000 := by
        rw [bl_size]
        have h1 := nulL_len (s.data.toList.take k)
        have h2 : (s.data.toList.take k).length ≤ k := by rw [List.length_take]; omega
        have := HSZ.out
        omega
      obtain ⟨V, hV⟩ : ∃ V, V = bl (nulL (s.data.toList.take k)) := ⟨_, rfl⟩
      rw [← hV] at hst hz ⊢
      have HST := Lib.hid hst
      clear hst hV
      by_cases h0 : (s[k]'hlt) = 0
      · have t0 : (((s[k]'hlt).toNat : Int) == 0) = true := by rw [h0]; rfl
        have hn : nul1 (s[k]'hlt) = [239, 191, 189] := by unfold nul1; rw [if_pos h0]
        have hz2 : (s.size : Int) ≤ 1000000 := by have := HSZ.out; omega
        have HN := Lib.hid hn
        clear hn h0
        go_wp2_with fail
        go_round
        case rel => exact ⟨k + 1, by omega, by go_num, by rw [HST.out, HN.out]; rfl⟩
        case measure => simp [intOf]; omega
      · have t0 : (((s[k]'hlt).toNat : Int) == 0) = false := by
          rw [beq_eq_false_iff_ne]
          intro e
          exact h0 (UInt8.toNat_inj.1 (by show (s[k]'hlt).toNat = 0; omega))
        have hx : s.extract k (k + 1) = bl (nul1 (s[k]'hlt)) := by
          have h1 := ext_take s k 1 (by omega)
          rw [drop_byte s k hlt] at h1
          have h2 : nul1 (s[k]'hlt) = [s[k]'hlt] := nul1_b h0
          rw [h2]
          exact bl_eq h1
        have hz2 : (s.size : Int) ≤ 1000000 := by have := HSZ.out; omega
        have HX := Lib.hid hx
        clear hx h0
        go_wp2_with fail
        go_round
        case rel => exact ⟨k + 1, by omega, by go_num, by rw [HST.out, ← HX.out]⟩
        case measure => simp [intOf]; omega
    · have hI2 : ¬ (k : Int) < (s.size : Int) := by omega
      have hk' : k = s.size := by omega
      have he : s.data.toList.take k = s.data.toList := List.take_of_length_le (by rw [size_list]; omega)
      rw [he]
      clear he hk' hlt
      go_wp2_with fail
      go_ret
      exact ⟨rfl, rfl⟩
end Go.Proofs.YtnfccckodgknjaaGreatDoor

namespace Go.Proofs.YtnfccckodgknjaaGreatDoor
open Go.RowKit Go.Shelf Go.Lib
set_option maxHeartbeats 4000000
set_option maxRecDepth 100000

theorem ext_take2 (s : ByteArray) (k n : Nat) (h : k ≤ n) (hn : n ≤ s.size) : s.extract k n = bl ((s.data.toList.drop k).take (n - k)) := by
  have h1 := ext_take s k (n - k) (by omega)
  rw [show k + (n - k) = n by omega] at h1
  exact bl_eq h1

theorem qUpTo (s : ByteArray) (a : Int) (p : ByteArray) (hp : p.data.toList ≠ []) (hps : p.size ≤ 10) (hs : s.size ≤ 1000000) (w : World) :
    Calls Tryz.prog 137 #[.string s, .int .i64 a, .string p] w fun e w' => e = .returned (.tuple #[.string (bl (utL p.data.toList (tlS s a)).1), .int .i64 ((clip s a + (utL p.data.toList (tlS s a)).2 : Nat) : Int)]) ∧ w' = w := by
  have HC := Lib.hid (fun W => qClip s a W)
  have hk := clip_le s a
  unfold tlS
  generalize clip s a = k at HC hk ⊢
  have HP := Lib.hid hp
  have HSZ := Lib.hid hs
  have HK := Lib.hid hk
  have HB := Lib.hid (fun (j : Nat) (h : j ≤ s.size) W => rBegins1 (s.extract j s.size) p W)
  clear hp hs
  go_enter Tryz.func137, Tryz.ntmps137
  go_wp2_with fail
  refine (HC.out w).mono ?_
  rintro e w1 ⟨rfl, rfl⟩
  go_wp2_with fail
  go_loop [8] (fun i => ∃ j : Nat, k ≤ j ∧ j ≤ s.size ∧ i = .int .i64 j ∧ utL p.data.toList (s.data.toList.drop k) = pre ((s.data.toList.drop k).take (j - k)) (j - k) (utL p.data.toList (s.data.toList.drop j))) (fun i => s.size - (intOf i).toNat)
  case atStart => exact ⟨k, Nat.le_refl _, hk, rfl, by rw [Nat.sub_self]; simp [pre]⟩
  case round =>
    obtain ⟨j, hkj, hj, rfl, heq⟩ := hrel
    have HEQ := Lib.hid heq
    clear heq
    have hz2 : (s.size : Int) ≤ 1000000 := by have := HSZ.out; omega
    by_cases hlt : j < s.size
    · have hI : (j : Int) < (s.size : Int) := by omega
      have hB := fun W => HB.out j hj W
      have hx := ext_drop s j
      rw [hx] at hB
      obtain ⟨q, hq⟩ : ∃ q, q = p.data.toList.isPrefixOf (s.data.toList.drop j) := ⟨_, rfl⟩
      rw [← hq] at hB
      have HBj := Lib.hid hB
      have HQ := Lib.hid hq
      clear hB hx hq
      have hst : utL p.data.toList (s.data.toList.drop j) = if q then ([], p.data.toList.length) else pre [s[j]'hlt] 1 (utL p.data.toList (s.data.toList.drop (j + 1))) := by
        rw [HQ.out, drop_byte s j hlt, utL_cons]
      have HST := Lib.hid hst
      clear hst
      cases q
      · go_wp2_with fail
        refine (HBj.out _).mono ?_
        rintro e w2 ⟨rfl, rfl⟩
        go_wp2_with fail
        go_round
        case rel =>
          refine ⟨j + 1, by omega, by omega, by go_num, ?_⟩
          rw [HEQ.out, HST.out, if_neg (by simp), pre_pre]
          have e1 : (s.data.toList.drop k).take (j + 1 - k) = (s.data.toList.drop k).take (j - k) ++ [s[j]'hlt] := by
            have hg : (s.data.toList.drop k)[j - k]? = some (s[j]'hlt) := by
              rw [List.getElem?_drop, show k + (j - k) = j by omega, Array.getElem?_toList]
              exact Array.getElem?_eq_getElem (xs := s.data) hlt
            rw [show j + 1 - k = (j - k) + 1 by omega, List.take_add_one, hg]
            rfl
          rw [e1, show j - k + 1 = j + 1 - k by omega]
        case measure => simp [intOf]; omega
      · have hz3 : (p.size : Int) ≤ 10 := by omega
        have hkI : (k : Int) ≤ (j : Int) := by omega
        go_wp2_with fail
        refine (HBj.out _).mono ?_
        rintro e w2 ⟨rfl, rfl⟩
        go_wp2_with fail
        go_ret2
        refine ⟨?_, rfl⟩
        rw [HEQ.out, HST.out, if_pos trivial, ext_take2 s k j hkj hj]
        refine ret2_si ?_ ?_
        · simp [pre]
        · simp only [pre]
          rw [size_list]
          omega
    · have hI2 : ¬ (j : Int) < (s.size : Int) := by omega
      have hj' : j = s.size := by omega
      have hkI : (k : Int) ≤ (s.size : Int) := by have := HK.out; omega
      have hfin : utL p.data.toList (s.data.toList.drop k) = (s.data.toList.drop k, s.size - k) := by
        rw [HEQ.out, drop_end s j (by omega), utL_nil _ HP.out]
        have e1 : (s.data.toList.drop k).take (j - k) = s.data.toList.drop k := List.take_of_length_le (by rw [List.length_drop, size_list]; omega)
        rw [e1, hj']
        simp [pre]
      have HF := Lib.hid hfin
      clear hfin hj'
      go_wp2_with fail
      go_ret2
      refine ⟨?_, rfl⟩
      rw [HF.out, show s.extract k s.size = bl (s.data.toList.drop k) from bl_eq (ext_drop s k)]
      exact ret2_si rfl (by have := HK.out; simp only; omega)

theorem qBogus (s : ByteArray) (a : Int) (hs : s.size ≤ 1000000) (w : World) :
    Calls Tryz.prog 82 #[.string s, .int .i64 a] w fun e w' => e = .returned (.tuple #[.string (bl (nulL (utL [62] (tlS s a)).1)), .int .i64 ((clip s a + (utL [62] (tlS s a)).2 : Nat) : Int)]) ∧ w' = w := by
  have HU := Lib.hid (qUpTo s a ⟨#[62]⟩ (by simp) (by decide) hs w)
  obtain ⟨V, hV⟩ : ∃ V, V = bl (utL [62] (tlS s a)).1 := ⟨_, rfl⟩
  obtain ⟨n, hn⟩ : ∃ n : Int, n = ((clip s a + (utL [62] (tlS s a)).2 : Nat) : Int) := ⟨_, rfl⟩
  have hV1 : (utL [62] (tlS s a)).1.length ≤ s.size := by
    have h := (cut_pre (tlS s a) [62]).length_le
    unfold tlS at h ⊢
    rw [List.length_drop, size_list] at h
    show (Lib.cut _ _).1.length ≤ _
    omega
  have HN := Lib.hid (qNul V (by rw [hV, bl_size]; omega) w)
  rw [show (ByteArray.mk #[62]).data.toList = [62] from rfl, ← hV, ← hn] at HU
  have hVl : V.data.toList = (utL [62] (tlS s a)).1 := by rw [hV]; rfl
  rw [hVl] at HN
  rw [← hn]
  obtain ⟨V2, hV2⟩ : ∃ V2, V2 = bl (nulL (utL [62] (tlS s a)).1) := ⟨_, rfl⟩
  rw [← hV2] at HN ⊢
  clear hV hV1 hVl hn hV2 hs
  go_enter Tryz.func82, Tryz.ntmps82
  go_wp2_with fail
  refine HU.out.mono ?_
  rintro e w1 ⟨rfl, rfl⟩
  go_wp2_with fail
  refine HN.out.mono ?_
  rintro e w2 ⟨rfl, rfl⟩
  go_wp2_with fail
  go_ret2
  exact ⟨rfl, rfl⟩
theorem qCdata (s : ByteArray) (a : Int) (hs : s.size ≤ 1000000) (w : World) :
    Calls Tryz.prog 87 #[.string s, .int .i64 a] w fun e w' => e = .returned (.tuple #[.string (bl (utL [93, 93, 62] (tlS s a)).1), .int .i64 ((clip s a + (utL [93, 93, 62] (tlS s a)).2 : Nat) : Int)]) ∧ w' = w := by
  have HU := Lib.hid (qUpTo s a ⟨#[93, 93, 62]⟩ (by simp) (by decide) hs w)
  obtain ⟨V, hV⟩ : ∃ V, V = bl (utL [93, 93, 62] (tlS s a)).1 := ⟨_, rfl⟩
  obtain ⟨n, hn⟩ : ∃ n : Int, n = ((clip s a + (utL [93, 93, 62] (tlS s a)).2 : Nat) : Int) := ⟨_, rfl⟩
  rw [show (ByteArray.mk #[93, 93, 62]).data.toList = [93, 93, 62] from rfl, ← hV, ← hn] at HU
  rw [← hn, ← hV]
  clear hV hn hs
  go_enter Tryz.func87, Tryz.ntmps87
  go_wp2_with fail
  refine HU.out.mono ?_
  rintro e w1 ⟨rfl, rfl⟩
  go_wp2_with fail
  go_ret2
  exact ⟨rfl, rfl⟩
end Go.Proofs.YtnfccckodgknjaaGreatDoor
