/-
  The document's reader of an attribute's value.
  The document's reader of attributes.
  The document's reader of document type declarations: its parts.
-/
import Derived.Test.YtnfccckodgknjaaGreatDoorY47
import Derived.Test.YtnfccckodgknjaaGreatDoorY27
import Derived.Test.YtnfccckodgknjaaGreatDoorY46
namespace Go.Proofs.YtnfccckodgknjaaGreatDoor
open Go.RowKit Go.Shelf Go.Lib
set_option maxHeartbeats 4000000
set_option maxRecDepth 100000

theorem qQuote (b : UInt8) (w : World) : Calls Tryz.prog 73 #[.int .u8 (b.toNat : Int)] w fun e w' => e = .returned (.bool (quU b)) ∧ w' = w := by
  have he : quU b = (((b.toNat : Int) == 34) || ((b.toNat : Int) == 39)) := by
    unfold quU
    congr 1
    · rw [Bool.eq_iff_iff, beq_iff_eq, beq_iff_eq]
      exact ⟨fun h => by rw [h]; rfl, fun h => UInt8.toNat_inj.1 (by show b.toNat = 34; omega)⟩
    · rw [Bool.eq_iff_iff, beq_iff_eq, beq_iff_eq]
      exact ⟨fun h => by rw [h]; rfl, fun h => UInt8.toNat_inj.1 (by show b.toNat = 39; omega)⟩
  rw [he]
  clear he
  generalize (b.toNat : Int) = x
  go_enter Tryz.func73, Tryz.ntmps73
  go_wp2_with fail
  all_goals
    go_ret
    exact ⟨ret_bool (by simp_all), rfl⟩
theorem cut_refG (attr : Bool) (t : List UInt8) (M : Nat) (h : t.drop M = [] ∨ ∃ c r, t.drop M = c :: r ∧ stopC c = true) : refL lgL attr t = refL lgL attr (t.take M) ∧ (refL lgL attr t).2 ≤ M := by
  have hR := refL_ok lgOk attr
  have e : refL lgL attr t = refL lgL attr (t.take M) := by
    rcases h with h | ⟨c, r, h, hc⟩
    · have : t.take M = t := by
        have := List.take_append_drop M t
        rwa [h, List.append_nil] at this
      rw [this]
    · conv => lhs; rw [← List.take_append_drop M t, h]
      exact hR.cut _ _ _ hc
  refine ⟨e, ?_⟩
  rw [e]
  have := hR.le (t.take M)
  rw [List.length_take] at this
  omega
/-- What the reader of a value comes to. -/
def QVal (s : ByteArray) (k : Nat) (w : World) (e : Ending) (w' : World) : Prop :=
  ∃ (V : ByteArray) (cl : Bool) (N : Nat), e = .returned (.tuple #[.string V, .bool cl, .int .i64 N]) ∧ N ≤ s.size ∧
    ((cl = true ∧ vaL (refL lgL true) (s.data.toList.drop k) = some (V.data.toList, s.data.toList.drop N)) ∨ (cl = false ∧ V = ⟨#[]⟩ ∧ N = s.size ∧ vaL (refL lgL true) (s.data.toList.drop k) = none)) ∧ Below w.heap.size w w'
theorem stop_q {c : UInt8} (h : quU c = true) : stopC c = true := by
  unfold quU at h
  rw [Bool.or_eq_true, beq_iff_eq, beq_iff_eq] at h
  rcases h with rfl | rfl <;> decide
theorem stop_eq {c d : UInt8} (h : quU d = true) (hq : (fun b => b == d) c = true) : stopC c = true := by
  have h2 : c = d := beq_iff_eq.1 hq
  rw [h2]
  exact stop_q h
theorem stop_w {c : UInt8} (h : ewU c = true) : stopC c = true := by
  unfold ewU at h
  rw [Bool.or_eq_true, beq_iff_eq] at h
  rcases h with h | rfl
  · unfold spU at h
    have e : c.toNat = 9 ∨ c.toNat = 10 ∨ c.toNat = 12 ∨ c.toNat = 13 ∨ c.toNat = 32 := by
      simp [spB] at h
      omega
    rcases e with e | e | e | e | e
    · obtain rfl : c = 9 := UInt8.toNat_inj.1 e
      decide
    · obtain rfl : c = 10 := UInt8.toNat_inj.1 e
      decide
    · obtain rfl : c = 12 := UInt8.toNat_inj.1 e
      decide
    · obtain rfl : c = 13 := UInt8.toNat_inj.1 e
      decide
    · obtain rfl : c = 32 := UInt8.toNat_inj.1 e
      decide
  · decide
theorem at_stop (q : UInt8 → Bool) (s : ByteArray) (j : Nat) : ∀ (_ : j ≤ s.size), (j + runN q (s.data.toList.drop j) = s.size ∨ ∃ h : j + runN q (s.data.toList.drop j) < s.size, q (s[j + runN q (s.data.toList.drop j)]'h) = true) := by
  intro hj
  have hle := runN_in q s j
  rcases runN_drop q (s.data.toList.drop j) with h | ⟨b, t, h, hb⟩
  · rw [List.drop_drop] at h
    have h2 := congrArg List.length h
    rw [List.length_drop, size_list] at h2
    simp at h2
    exact .inl (by omega)
  · rw [List.drop_drop] at h
    have hlt : j + runN q (s.data.toList.drop j) < s.size := by
      refine Nat.lt_of_not_le fun h2 => ?_
      rw [drop_end s _ h2] at h
      cases h
    refine .inr ⟨hlt, ?_⟩
    rw [drop_byte s _ hlt] at h
    injection h with h3 _
    rw [h3]
    exact hb
theorem before_stop (q : UInt8 → Bool) (s : ByteArray) (j0 j : Nat) (h0 : j0 ≤ j) (h : j < j0 + runN q (s.data.toList.drop j0)) (hs : j < s.size) : q (s[j]'hs) = false := by
  refine runN_take q (s.data.toList.drop j0) _ ?_
  have hg : ((s.data.toList.drop j0).take (runN q (s.data.toList.drop j0)))[j - j0]? = some (s[j]'hs) := by
    rw [List.getElem?_take, if_pos (by omega), List.getElem?_drop, show j0 + (j - j0) = j by omega, Array.getElem?_toList]
    exact Array.getElem?_eq_getElem (xs := s.data) hs
  exact List.mem_of_getElem? hg

theorem qValue (s : ByteArray) (a : Int) (hs : s.size ≤ 100000) (w : World) : Calls Tryz.prog 192 #[.string s, .int .i64 a] w (QVal s (clip s a) w) := by
  have HC := Lib.hid (fun W => qClip s a W)
  have hk := clip_le s a
  generalize clip s a = k at HC hk ⊢
  have HSP0 := Lib.hid (fun W => qSpaces s k hk (by omega) W)
  have HRF := Lib.hid (fun (j : Nat) (_ : j ≤ s.size) W => qReference s (j : Int) true (by omega) W)
  have HSZ := Lib.hid hs
  have hrun := runN_in (fun b => !spU b) s k
  obtain ⟨i0, hi⟩ : ∃ i0, i0 = k + runN (fun b => !spU b) (s.data.toList.drop k) := ⟨_, rfl⟩
  rw [← hi] at HSP0
  have hsk : sk (s.data.toList.drop k) = s.data.toList.drop i0 := by unfold sk; rw [List.drop_drop, hi]
  have hi1 : i0 ≤ s.size := by omega
  have hz2 : (s.size : Int) ≤ 100000 := by omega
  have HSK := Lib.hid hsk
  have HI := Lib.hid hi
  have HK := Lib.hid hk
  clear hs hk hrun hi hsk
  by_cases hi0 : i0 < s.size
  · have hc : s.data.toList.drop i0 = (s[i0]'hi0) :: s.data.toList.drop (i0 + 1) := drop_byte s i0 hi0
    have HCc := Lib.hid hc
    clear hc
    have hII : (i0 : Int) < (s.size : Int) := by omega
    have di : ((i0 : Int) == (s.size : Int)) = false := by rw [beq_eq_false_iff_ne]; omega
    by_cases h62 : s[i0]'hi0 = 62
    · have d62 : (((s[i0]'hi0).toNat : Int) == 62) = true := by rw [h62]; rfl
      have hv : vaL (refL lgL true) (s.data.toList.drop k) = some ([], s.data.toList.drop i0) := by
        unfold vaL
        rw [HSK.out, HCc.out, h62]
        simp only
        rw [if_neg (by decide), runN_yes _ (by decide), if_pos (by simp)]
        rfl
      have HV := Lib.hid hv
      clear hv h62
      go_enter Tryz.func192, Tryz.ntmps192
      go_wp2_with fail
      refine (HC.out w).mono ?_
      rintro e w1 ⟨rfl, rfl⟩
      go_wp2_with fail
      refine (HSP0.out _).mono ?_
      rintro e w2 ⟨rfl, rfl⟩
      go_wp2_with fail
      go_ret3
      exact ⟨⟨#[]⟩, true, i0, rfl, hi1, .inl ⟨rfl, HV.out⟩, Below.refl _ _⟩
    · have d62 : (((s[i0]'hi0).toNat : Int) == 62) = false := by
        rw [beq_eq_false_iff_ne]
        intro h
        exact h62 (UInt8.toNat_inj.1 (by show (s[i0]'hi0).toNat = 62; omega))
      have HQ := Lib.hid (fun W => qQuote (s[i0]'hi0) W)
      obtain ⟨y, hy⟩ : ∃ y, y = quU (s[i0]'hi0) := ⟨_, rfl⟩
      rw [← hy] at HQ
      have HY := Lib.hid hy
      clear hy h62
      cases y
      · -- not quoted
        have hle0 := runN_in (ewU) s (i0)
        obtain ⟨Z, hZ⟩ : ∃ Z, Z = i0 + runN (ewU) (s.data.toList.drop (i0)) := ⟨_, rfl⟩
        have hZs : Z ≤ s.size := by omega
        have hzz := at_stop (ewU) s (i0) (by omega)
        rw [← hZ] at hzz
        have hbf : ∀ j (_ : i0 ≤ j) (_ : j < Z) (hs : j < s.size), (ewU) (s[j]'hs) = false := fun j h0 h hs => before_stop (ewU) s (i0) j h0 (by rw [← hZ]; exact h) hs
        have hend : s.data.toList.drop Z = [] ∨ ∃ c r, s.data.toList.drop Z = c :: r ∧ stopC c = true := by
          rcases hzz with h | ⟨h, hq⟩
          · exact .inl (drop_end s Z (by omega))
          · exact .inr ⟨_, _, drop_byte s Z h, stop_w hq⟩
        obtain ⟨tot, htot⟩ : ∃ tot, tot = res (refL lgL true) ((s.data.toList.drop (i0)).take (Z - (i0))) := ⟨_, rfl⟩
        have htl : tot.length ≤ 40400000 := by
          have h := refL_res lgOk true ((s.data.toList.drop (i0)).take (Z - (i0)))
          rw [← htot, List.length_take, List.length_drop, size_list] at h
          have := HSZ.out
          omega
        have hfy : ∀ _ : Z < s.size, vaL (refL lgL true) (s.data.toList.drop k) = some ((bl tot).data.toList, s.data.toList.drop Z) := by
          intro h
          unfold vaL
          rw [HSK.out, HCc.out]
          simp only
          rw [← HY.out, if_neg (by simp), ← HCc.out, if_pos (by rw [List.length_drop, size_list]; omega), bl_list, htot, List.drop_drop, ← hZ, show Z - i0 = runN ewU (s.data.toList.drop i0) by omega]
        have hfn : ∀ _ : Z = s.size, vaL (refL lgL true) (s.data.toList.drop k) = none := by
          intro h
          unfold vaL
          rw [HSK.out, HCc.out]
          simp only
          rw [← HY.out, if_neg (by simp), ← HCc.out, if_neg (by rw [List.length_drop, size_list]; omega)]
        have FY := Lib.hid hfy
        have FN := Lib.hid hfn
        clear hfy hfn
        have HZ := Lib.hid (show i0 ≤ Z by omega)
        have HZS := Lib.hid hZs
        have HZZ := Lib.hid hzz
        have HBF := Lib.hid hbf
        have HEND := Lib.hid hend
        have HTOT := Lib.hid htot
        have HTL := Lib.hid htl
        clear hle0 hZ hZs hzz hbf hend htot htl
        go_enter Tryz.func192, Tryz.ntmps192
        go_wp2_with fail
        refine (HC.out w).mono ?_
        rintro e w1 ⟨rfl, rfl⟩
        go_wp2_with fail
        refine (HSP0.out _).mono ?_
        rintro e w2 ⟨rfl, rfl⟩
        go_wp2_with fail
        refine (HQ.out _).mono ?_
        rintro e w3 ⟨rfl, rfl⟩
        go_wp2_with fail
        go_loopw [7, 9] (fun i o wx => ∃ (j : Nat) (O : ByteArray), i0 ≤ j ∧ j ≤ Z ∧ i = .int .i64 j ∧ o = .string O ∧ O.data.toList ++ res (refL lgL true) ((s.data.toList.drop j).take (Z - j)) = tot ∧ Below w3.heap.size w3 wx) (fun i _ _ => Z - (intOf i).toNat)
        case atStart => exact ⟨i0, ⟨#[]⟩, Nat.le_refl _, by have := HZ.out; omega, by first | rfl | go_num, rfl, by rw [HTOT.out]; rfl, Below.refl _ _⟩
        case round =>
          obtain ⟨j, O, hkj, hj, rfl, rfl, heq, hB⟩ := hrel
          have hO : O.size ≤ 40400000 := by
            have h := congrArg List.length heq
            rw [List.length_append, size_list] at h
            have := HTL.out
            omega
          have HEQ := Lib.hid heq
          clear heq
          by_cases hlt : j < Z
          · have hjs : j < s.size := by have := HZS.out; omega
            have hJ : (j : Int) < (s.size : Int) := by omega
            have hb := HBF.out j hkj hlt hjs
            have hsp : spB ((s[j]'hjs).toNat : Int) = false := by
              unfold ewU at hb
              rw [Bool.or_eq_false_iff] at hb
              exact hb.1
            have HSP := Lib.hid (fun W => rSpace ((s[j]'hjs).toNat : Int) W)
            rw [hsp] at HSP
            have d62 : (((s[j]'hjs).toNat : Int) == 62) = false := by
              unfold ewU at hb
              rw [Bool.or_eq_false_iff] at hb
              rw [beq_eq_false_iff_ne]
              intro h
              have hb2 := hb.2
              rw [beq_eq_false_iff_ne] at hb2
              exact hb2 (UInt8.toNat_inj.1 (by show (s[j]'hjs).toNat = 62; omega))
            clear hb hsp
            have hcons : (s.data.toList.drop j).take (Z - j) = (s[j]'hjs) :: (s.data.toList.drop (j + 1)).take (Z - (j + 1)) := by
              rw [drop_byte s j hjs, show Z - j = (Z - (j + 1)) + 1 by omega, List.take_succ_cons]
            have HCONS := Lib.hid hcons
            by_cases h38 : s[j]'hjs = 38
            · have t38 : (((s[j]'hjs).toNat : Int) == 38) = true := by rw [h38]; rfl
              have hr := fun W => HRF.out (j + 1) (by omega) W
              rw [show clip s ((j + 1 : Nat) : Int) = j + 1 from clip_nat s (j + 1) (by omega), tlS_nat s (j + 1) (by omega)] at hr
              have hcr := cut_refG true (s.data.toList.drop (j + 1)) (Z - (j + 1)) (by rw [List.drop_drop, show j + 1 + (Z - (j + 1)) = Z by omega]; exact HEND.out)
              have hst : res (refL lgL true) ((s.data.toList.drop j).take (Z - j)) = (refL lgL true (s.data.toList.drop (j + 1))).1 ++ res (refL lgL true) ((s.data.toList.drop (j + 1 + (refL lgL true (s.data.toList.drop (j + 1))).2)).take (Z - (j + 1 + (refL lgL true (s.data.toList.drop (j + 1))).2))) := by
                rw [HCONS.out, h38, res_amp, ← hcr.1, List.drop_take, List.drop_drop]
                congr 3
                omega
              have hrl := (refL_le lgOk true (s.data.toList.drop (j + 1))).2
              obtain ⟨R, hR⟩ : ∃ R, R = refL lgL true (s.data.toList.drop (j + 1)) := ⟨_, rfl⟩
              rw [← hR] at hr hcr hst hrl
              have HR := Lib.hid hr
              have HST := Lib.hid hst
              have HCR := Lib.hid hcr.2
              have HRL := Lib.hid hrl
              have hjI : ((j + 1 : Nat) : Int) = (j : Int) + 1 := by omega
              rw [hjI] at HR
              clear hr hcr hst hcons hR hrl h38 hjI
              go_wp2_with fail
              refine (HSP.out _).mono ?_
              rintro e wz ⟨rfl, rfl⟩
              go_wp2_with fail
              refine (HR.out _).mono ?_
              rintro e w3 ⟨V, M, rfl, hV, hM, hMs, hs3⟩
              have hb3 := below_next hB hs3
              have hVs : V.size ≤ 1000000 := by
                rw [← size_list, hV]
                have := HRL.out
                have := HCR.out
                have := HZS.out
                have := HSZ.out
                omega
              have HV := Lib.hid hV
              have HM := Lib.hid hM
              clear hV hM hs3
              go_wp2_with fail
              go_roundw
              case rel =>
                have hm := HM.out
                have hc := HCR.out
                refine ⟨j + 1 + M, O ++ V, by omega, by omega, by go_num, rfl, ?_, hb3⟩
                rw [ByteArray.data_append, Array.toList_append, HV.out, List.append_assoc, hm, ← HST.out]
                exact HEQ.out
              case measure =>
                have hm := HM.out
                have hc := HCR.out
                simp [intOf]
                omega
            · have t38 : (((s[j]'hjs).toNat : Int) == 38) = false := by
                rw [beq_eq_false_iff_ne]
                intro h
                exact h38 (UInt8.toNat_inj.1 (by show (s[j]'hjs).toNat = 38; omega))
              have hx : (s.extract j (j + 1)).data.toList = [s[j]'hjs] := by
                have h1 := ext_take s j 1 (by omega)
                rw [h1, drop_byte s j hjs]
                rfl
              have hn := fun W => qNul (s.extract j (j + 1)) (by rw [ByteArray.size_extract]; omega) W
              rw [hx] at hn
              obtain ⟨V, hV⟩ : ∃ V, V = bl (nulL [s[j]'hjs]) := ⟨_, rfl⟩
              have hVl : V.data.toList = nul1 (s[j]'hjs) := by rw [hV, bl_list, nulL_cons, nulL_nil, List.append_nil]
              have hVs : V.size ≤ 3 := by rw [← size_list, hVl]; exact nul1_len _
              rw [← hV] at hn
              have HN := Lib.hid hn
              have HVL := Lib.hid hVl
              have hst : res (refL lgL true) ((s.data.toList.drop j).take (Z - j)) = nul1 (s[j]'hjs) ++ res (refL lgL true) ((s.data.toList.drop (j + 1)).take (Z - (j + 1))) := by
                rw [HCONS.out, res_b _ _ _ h38]
              have HST := Lib.hid hst
              clear hx hn hV hVl hst hcons h38
              go_wp2_with fail
              refine (HSP.out _).mono ?_
              rintro e wz ⟨rfl, rfl⟩
              go_wp2_with fail
              refine (HN.out _).mono ?_
              rintro e w3 ⟨rfl, rfl⟩
              go_wp2_with fail
              go_roundw
              case rel =>
                refine ⟨j + 1, O ++ V, by omega, by omega, by go_num, rfl, ?_, hB⟩
                rw [ByteArray.data_append, Array.toList_append, HVL.out, List.append_assoc, ← HST.out]
                exact HEQ.out
              case measure => simp [intOf]; omega
          · have hjZ : j = Z := by omega
            have hfin : O = bl tot := by
              have h := HEQ.out
              rw [show Z - j = 0 by omega, List.take_zero, res_nil, List.append_nil] at h
              exact bl_eq h
            have HF := Lib.hid hfin
            clear hfin
            rcases HZZ.out with hz | ⟨hz, hq⟩
            · have hI2 : ¬ (j : Int) < (s.size : Int) := by omega
              clear hjZ
              go_wp2_with fail
              go_ret3
              exact ⟨⟨#[]⟩, false, s.size, rfl, Nat.le_refl _, .inr ⟨rfl, rfl, rfl, FN.out hz⟩, hB⟩
            · have hjs : j < s.size := by omega
              have hJ : (j : Int) < (s.size : Int) := by omega
              have hqj : ewU (s[j]'hjs) = true := by
                have h : s[j]'hjs = s[Z]'hz := by simp only [hjZ]
                rw [h]
                exact hq
              have HSP := Lib.hid (fun W => rSpace ((s[j]'hjs).toNat : Int) W)
              obtain ⟨y, hy⟩ : ∃ y, y = spB ((s[j]'hjs).toNat : Int) := ⟨_, rfl⟩
              rw [← hy] at HSP
              have d62 : y = true ∨ (y = false ∧ (((s[j]'hjs).toNat : Int) == 62) = true) := by
                unfold ewU spU at hqj
                rw [Bool.or_eq_true, ← hy, beq_iff_eq] at hqj
                rcases hqj with h | h
                · exact .inl h
                · cases y
                  · exact .inr ⟨rfl, by rw [h]; rfl⟩
                  · exact .inl rfl
              have HJZ := Lib.hid hjZ
              clear hqj hjZ hq hy
              rcases d62 with rfl | ⟨rfl, d62⟩
              all_goals
                go_wp2_with fail
                refine (HSP.out _).mono ?_
                rintro e wz ⟨rfl, rfl⟩
                go_wp2_with fail
                go_ret3
                exact ⟨O, true, Z, by rw [← HJZ.out]; rfl, by have := HJZ.out; omega, .inl ⟨rfl, by rw [HF.out]; exact FY.out hz⟩, hB⟩
      · -- quoted
        have hle0 := runN_in (fun b => b == s[i0]'hi0) s (i0 + 1)
        obtain ⟨Z, hZ⟩ : ∃ Z, Z = i0 + 1 + runN (fun b => b == s[i0]'hi0) (s.data.toList.drop (i0 + 1)) := ⟨_, rfl⟩
        have hZs : Z ≤ s.size := by omega
        have hzz := at_stop (fun b => b == s[i0]'hi0) s (i0 + 1) (by omega)
        rw [← hZ] at hzz
        have hbf : ∀ j (_ : i0 + 1 ≤ j) (_ : j < Z) (hs : j < s.size), (fun b => b == s[i0]'hi0) (s[j]'hs) = false := fun j h0 h hs => before_stop (fun b => b == s[i0]'hi0) s (i0 + 1) j h0 (by rw [← hZ]; exact h) hs
        have hend : s.data.toList.drop Z = [] ∨ ∃ c r, s.data.toList.drop Z = c :: r ∧ stopC c = true := by
          rcases hzz with h | ⟨h, hq⟩
          · exact .inl (drop_end s Z (by omega))
          · exact .inr ⟨_, _, drop_byte s Z h, stop_eq HY.out.symm hq⟩
        obtain ⟨tot, htot⟩ : ∃ tot, tot = res (refL lgL true) ((s.data.toList.drop (i0 + 1)).take (Z - (i0 + 1))) := ⟨_, rfl⟩
        have htl : tot.length ≤ 40400000 := by
          have h := refL_res lgOk true ((s.data.toList.drop (i0 + 1)).take (Z - (i0 + 1)))
          rw [← htot, List.length_take, List.length_drop, size_list] at h
          have := HSZ.out
          omega
        have hfy : ∀ _ : Z < s.size, vaL (refL lgL true) (s.data.toList.drop k) = some ((bl tot).data.toList, s.data.toList.drop (Z + 1)) := by
          intro h
          unfold vaL
          rw [HSK.out, HCc.out]
          simp only
          rw [← HY.out, if_pos rfl, if_pos (by rw [List.length_drop, size_list]; omega), bl_list, htot, List.drop_drop, show i0 + 1 + (runN (fun b => b == s[i0]'hi0) (s.data.toList.drop (i0 + 1)) + 1) = Z + 1 by omega, show Z - (i0 + 1) = runN (fun b => b == s[i0]'hi0) (s.data.toList.drop (i0 + 1)) by omega]
        have hfn : ∀ _ : Z = s.size, vaL (refL lgL true) (s.data.toList.drop k) = none := by
          intro h
          unfold vaL
          rw [HSK.out, HCc.out]
          simp only
          rw [← HY.out, if_pos rfl, if_neg (by rw [List.length_drop, size_list]; omega)]
        have FY := Lib.hid hfy
        have FN := Lib.hid hfn
        clear hfy hfn
        have hnz : ¬ s[i0]'hi0 = 0 := by
          intro h
          have h2 := HY.out
          rw [h] at h2
          revert h2
          decide
        have dz : (((s[i0]'hi0).toNat : Int) != 0) = true := by
          rw [bne_iff_ne]
          intro h
          exact hnz (UInt8.toNat_inj.1 (by show (s[i0]'hi0).toNat = 0; omega))
        have dz2 : (((s[i0]'hi0).toNat : Int) == 0) = false := by
          rw [beq_eq_false_iff_ne]
          intro h
          exact hnz (UInt8.toNat_inj.1 (by show (s[i0]'hi0).toNat = 0; omega))
        clear hnz
        have HZ := Lib.hid (show i0 + 1 ≤ Z by omega)
        have HZS := Lib.hid hZs
        have HZZ := Lib.hid hzz
        have HBF := Lib.hid hbf
        have HEND := Lib.hid hend
        have HTOT := Lib.hid htot
        have HTL := Lib.hid htl
        clear hle0 hZ hZs hzz hbf hend htot htl
        go_enter Tryz.func192, Tryz.ntmps192
        go_wp2_with fail
        refine (HC.out w).mono ?_
        rintro e w1 ⟨rfl, rfl⟩
        go_wp2_with fail
        refine (HSP0.out _).mono ?_
        rintro e w2 ⟨rfl, rfl⟩
        go_wp2_with fail
        refine (HQ.out _).mono ?_
        rintro e w3 ⟨rfl, rfl⟩
        go_wp2_with fail
        go_loopw [7, 9] (fun i o wx => ∃ (j : Nat) (O : ByteArray), i0 + 1 ≤ j ∧ j ≤ Z ∧ i = .int .i64 j ∧ o = .string O ∧ O.data.toList ++ res (refL lgL true) ((s.data.toList.drop j).take (Z - j)) = tot ∧ Below w3.heap.size w3 wx) (fun i _ _ => Z - (intOf i).toNat)
        case atStart => exact ⟨i0 + 1, ⟨#[]⟩, Nat.le_refl _, by have := HZ.out; omega, by first | rfl | go_num, rfl, by rw [HTOT.out]; rfl, Below.refl _ _⟩
        case round =>
          obtain ⟨j, O, hkj, hj, rfl, rfl, heq, hB⟩ := hrel
          have hO : O.size ≤ 40400000 := by
            have h := congrArg List.length heq
            rw [List.length_append, size_list] at h
            have := HTL.out
            omega
          have HEQ := Lib.hid heq
          clear heq
          by_cases hlt : j < Z
          · have hjs : j < s.size := by have := HZS.out; omega
            have hJ : (j : Int) < (s.size : Int) := by omega
            have dq : (((s[j]'hjs).toNat : Int) == ((s[i0]'hi0).toNat : Int)) = false := by
              rw [beq_eq_false_iff_ne]
              intro h
              have hb := HBF.out j hkj hlt hjs
              rw [beq_eq_false_iff_ne] at hb
              exact hb (UInt8.toNat_inj.1 (by omega))
            have hcons : (s.data.toList.drop j).take (Z - j) = (s[j]'hjs) :: (s.data.toList.drop (j + 1)).take (Z - (j + 1)) := by
              rw [drop_byte s j hjs, show Z - j = (Z - (j + 1)) + 1 by omega, List.take_succ_cons]
            have HCONS := Lib.hid hcons
            by_cases h38 : s[j]'hjs = 38
            · have t38 : (((s[j]'hjs).toNat : Int) == 38) = true := by rw [h38]; rfl
              have hr := fun W => HRF.out (j + 1) (by omega) W
              rw [show clip s ((j + 1 : Nat) : Int) = j + 1 from clip_nat s (j + 1) (by omega), tlS_nat s (j + 1) (by omega)] at hr
              have hcr := cut_refG true (s.data.toList.drop (j + 1)) (Z - (j + 1)) (by rw [List.drop_drop, show j + 1 + (Z - (j + 1)) = Z by omega]; exact HEND.out)
              have hst : res (refL lgL true) ((s.data.toList.drop j).take (Z - j)) = (refL lgL true (s.data.toList.drop (j + 1))).1 ++ res (refL lgL true) ((s.data.toList.drop (j + 1 + (refL lgL true (s.data.toList.drop (j + 1))).2)).take (Z - (j + 1 + (refL lgL true (s.data.toList.drop (j + 1))).2))) := by
                rw [HCONS.out, h38, res_amp, ← hcr.1, List.drop_take, List.drop_drop]
                congr 3
                omega
              have hrl := (refL_le lgOk true (s.data.toList.drop (j + 1))).2
              obtain ⟨R, hR⟩ : ∃ R, R = refL lgL true (s.data.toList.drop (j + 1)) := ⟨_, rfl⟩
              rw [← hR] at hr hcr hst hrl
              have HR := Lib.hid hr
              have HST := Lib.hid hst
              have HCR := Lib.hid hcr.2
              have HRL := Lib.hid hrl
              have hjI : ((j + 1 : Nat) : Int) = (j : Int) + 1 := by omega
              rw [hjI] at HR
              clear hr hcr hst hcons hR hrl h38 hjI
              go_wp2_with fail

              refine (HR.out _).mono ?_
              rintro e w3 ⟨V, M, rfl, hV, hM, hMs, hs3⟩
              have hb3 := below_next hB hs3
              have hVs : V.size ≤ 1000000 := by
                rw [← size_list, hV]
                have := HRL.out
                have := HCR.out
                have := HZS.out
                have := HSZ.out
                omega
              have HV := Lib.hid hV
              have HM := Lib.hid hM
              clear hV hM hs3
              go_wp2_with fail
              go_roundw
              case rel =>
                have hm := HM.out
                have hc := HCR.out
                refine ⟨j + 1 + M, O ++ V, by omega, by omega, by go_num, rfl, ?_, hb3⟩
                rw [ByteArray.data_append, Array.toList_append, HV.out, List.append_assoc, hm, ← HST.out]
                exact HEQ.out
              case measure =>
                have hm := HM.out
                have hc := HCR.out
                simp [intOf]
                omega
            · have t38 : (((s[j]'hjs).toNat : Int) == 38) = false := by
                rw [beq_eq_false_iff_ne]
                intro h
                exact h38 (UInt8.toNat_inj.1 (by show (s[j]'hjs).toNat = 38; omega))
              have hx : (s.extract j (j + 1)).data.toList = [s[j]'hjs] := by
                have h1 := ext_take s j 1 (by omega)
                rw [h1, drop_byte s j hjs]
                rfl
              have hn := fun W => qNul (s.extract j (j + 1)) (by rw [ByteArray.size_extract]; omega) W
              rw [hx] at hn
              obtain ⟨V, hV⟩ : ∃ V, V = bl (nulL [s[j]'hjs]) := ⟨_, rfl⟩
              have hVl : V.data.toList = nul1 (s[j]'hjs) := by rw [hV, bl_list, nulL_cons, nulL_nil, List.append_nil]
              have hVs : V.size ≤ 3 := by rw [← size_list, hVl]; exact nul1_len _
              rw [← hV] at hn
              have HN := Lib.hid hn
              have HVL := Lib.hid hVl
              have hst : res (refL lgL true) ((s.data.toList.drop j).take (Z - j)) = nul1 (s[j]'hjs) ++ res (refL lgL true) ((s.data.toList.drop (j + 1)).take (Z - (j + 1))) := by
                rw [HCONS.out, res_b _ _ _ h38]
              have HST := Lib.hid hst
              clear hx hn hV hVl hst hcons h38
              go_wp2_with fail

              refine (HN.out _).mono ?_
              rintro e w3 ⟨rfl, rfl⟩
              go_wp2_with fail
              go_roundw
              case rel =>
                refine ⟨j + 1, O ++ V, by omega, by omega, by go_num, rfl, ?_, hB⟩
                rw [ByteArray.data_append, Array.toList_append, HVL.out, List.append_assoc, ← HST.out]
                exact HEQ.out
              case measure => simp [intOf]; omega
          · have hjZ : j = Z := by omega
            have hfin : O = bl tot := by
              have h := HEQ.out
              rw [show Z - j = 0 by omega, List.take_zero, res_nil, List.append_nil] at h
              exact bl_eq h
            have HF := Lib.hid hfin
            clear hfin
            rcases HZZ.out with hz | ⟨hz, hq⟩
            · have hI2 : ¬ (j : Int) < (s.size : Int) := by omega
              clear hjZ
              go_wp2_with fail
              go_ret3
              exact ⟨⟨#[]⟩, false, s.size, rfl, Nat.le_refl _, .inr ⟨rfl, rfl, rfl, FN.out hz⟩, hB⟩
            · have hjs : j < s.size := by omega
              have hJ : (j : Int) < (s.size : Int) := by omega
              have hqj : s[j]'hjs = s[i0]'hi0 := by
                have h := beq_iff_eq.1 hq
                rw [← h]
                simp only [hjZ]
              have dq : (((s[j]'hjs).toNat : Int) == ((s[i0]'hi0).toNat : Int)) = true := beq_iff_eq.2 (by rw [hqj])
              have HJZ := Lib.hid hjZ
              clear hqj hjZ hq
              go_wp2_with fail
              go_ret3
              exact ⟨O, true, Z + 1, by rw [← HJZ.out]; rfl, by have := HJZ.out; omega, .inl ⟨rfl, by rw [HF.out]; exact FY.out hz⟩, hB⟩
  · have hi2 : i0 = s.size := by omega
    have di : ((i0 : Int) == (s.size : Int)) = true := by rw [beq_iff_eq]; omega
    have hv : vaL (refL lgL true) (s.data.toList.drop k) = none := by
      unfold vaL
      rw [HSK.out, drop_end s i0 (by omega)]
    have HV := Lib.hid hv
    have HI2 := Lib.hid hi2
    clear hv hi2 hi0
    go_enter Tryz.func192, Tryz.ntmps192
    go_wp2_with fail
    refine (HC.out w).mono ?_
    rintro e w1 ⟨rfl, rfl⟩
    go_wp2_with fail
    refine (HSP0.out _).mono ?_
    rintro e w2 ⟨rfl, rfl⟩
    go_wp2_with fail
    go_ret3
    exact ⟨⟨#[]⟩, false, i0, rfl, hi1, .inr ⟨rfl, rfl, HI2.out, HV.out⟩, Below.refl _ _⟩
end Go.Proofs.YtnfccckodgknjaaGreatDoor

namespace Go.Proofs.YtnfccckodgknjaaGreatDoor
open Go.RowKit Go.Shelf Go.Lib
set_option maxHeartbeats 8000000
set_option maxRecDepth 100000

theorem qSpacesAt2 (s : ByteArray) (j : Nat) (hj : j ≤ s.size) (hs : s.size ≤ 1000000) : ∃ i : Nat, j ≤ i ∧ i ≤ s.size ∧ sk (s.data.toList.drop j) = s.data.toList.drop i ∧
    ∀ W, Calls Tryz.prog 67 #[.string s, .int .i64 j] W fun e w' => e = .returned (.int .i64 (i : Nat)) ∧ w' = W := by
  refine ⟨j + runN (fun b => !spU b) (s.data.toList.drop j), by omega, ?_, ?_, fun W => qSpaces s j hj hs W⟩
  · have := runN_in (fun b => !spU b) s j
    omega
  · unfold sk
    rw [List.drop_drop]

/-- What the document's reader of attributes answers. -/
def QAts (s : ByteArray) (k : Nat) (w : World) (e : Ending) (w' : World) : Prop :=
  ∃ (v : Value) (sc cl : Bool) (N : Nat) (acc : AttL), e = .returned (.tuple #[v, .bool sc, .bool cl, .int .i64 N]) ∧ Below w.heap.size w w' ∧ k ≤ N ∧ N ≤ s.size ∧
      w'.ownsRow w.heap.size 31 3 v acc.length (attrCells acc) ∧ acc.length ≤ s.size ∧
      ((cl = true ∧ atL (refL lgL true) (s.data.toList.drop k) = some (acc, sc, s.data.toList.drop N)) ∨ (cl = false ∧ sc = false ∧ v = .slice none 0 0 ∧ acc = [] ∧ N = s.size ∧ atL (refL lgL true) (s.data.toList.drop k) = none))

theorem attr_eq_at {s : ByteArray} {i kk i2 : Nat} (hi : i < s.size) (hkk : kk = i + 1 + runN eqU (s.data.toList.drop (i + 1))) (hsk : sk (s.data.toList.drop kk) = s.data.toList.drop i2) :
    atRest (s.data.toList.drop (i + 1)) = s.data.toList.drop i2 ∧ nulL (lowL ((s.data.toList.drop i).take (kk - i))) = atName (s[i]'hi) (s.data.toList.drop (i + 1)) := by
  constructor
  · unfold atRest
    rw [List.drop_drop, ← hkk, hsk]
  · unfold atName
    rw [low_nul, drop_byte s i hi, show kk - i = runN eqU (s.data.toList.drop (i + 1)) + 1 by omega, List.take_succ_cons]

theorem ownA_cell {w w' : World} {B b n : Nat} {v : Value} {xs : List Value} (h : w.ownsRow B 31 3 v n xs) (hne : some b ≠ v.ownBlock) (hb : But b w w') : w'.ownsRow B 31 3 v n xs :=
  h.kept hb (by
    rcases h.2 with ⟨rfl, _⟩ | ⟨g, cap, cur, rfl, _⟩
    · exact .inl rfl
    · exact .inr fun e => hne e.symm)
theorem qAttributes (s : ByteArray) (a : Int) (hs : s.size ≤ 100000) (w : World) :
    Calls Tryz.prog 142 #[.string s, .int .i64 a] w (QAts s (clip s a) w) := by
  have HC := Lib.hid (fun W => qClip s a W)
  have hk := clip_le s a
  generalize clip s a = k at HC hk ⊢
  have HK := Lib.hid hk
  have HS := Lib.hid hs
  have HE := Lib.hid (fun (b : UInt8) W => qEnds b W)
  have hz2 : (s.size : Int) ≤ 100000 := by omega
  clear hk hs
  go_enter Tryz.func142, Tryz.ntmps142
  go_wp2_with fail
  refine (HC.out _).mono ?_
  rintro e w1 ⟨rfl, rfl⟩
  go_wp2_with fail
  go_loopg [8, 9] (s.size - k) (fun gn v i wr => ∃ (acc : AttL) (j : Nat), gn = s.size - j ∧ i = .int .i64 j ∧ k ≤ j ∧ j ≤ s.size ∧ acc.length ≤ j ∧ atG (refL lgL true) acc (s.data.toList.drop j) = atL (refL lgL true) (s.data.toList.drop k) ∧ wr.ownsRow w1.heap.size 31 3 v acc.length (attrCells acc) ∧ Below w1.heap.size w1 wr)
  case atStart => exact ⟨[], k, rfl, rfl, Nat.le_refl _, HK.out, Nat.zero_le _, rfl, World.ownsRow_nil _ _ _ _, Below.refl _ _⟩
  case round =>
    obtain ⟨acc, j, hgn, rfl, hkj, hjs, hal, heq, hrow, hbb⟩ := hrel
    obtain ⟨i, hji, his, hsk, hS⟩ := qSpacesAt2 s j hjs (by have := HS.out; omega)
    have HSP := Lib.hid hS
    have hstep := atG_step (refL lgL true) acc (s.data.toList.drop j)
    rw [hsk, heq] at hstep
    have HST := Lib.hid hstep
    have HGN := Lib.hid hgn
    have HKJ := Lib.hid hkj
    have HJI := Lib.hid hji
    have HIS := Lib.hid his
    have HAL := Lib.hid hal
    have HROW := Lib.hid hrow
    have HBB := Lib.hid hbb
    clear hgn hkj hjs hal heq hrow hbb hsk hS hstep hji his
    go_wp2_with fail
    refine (HSP.out _).mono ?_
    rintro e w2 ⟨rfl, rfl⟩
    by_cases hi : i < s.size
    · have dE : ((i : Int) == (s.size : Int)) = false := by rw [beq_eq_false_iff_ne]; omega
      have hiI : (i : Int) < (s.size : Int) := by omega
      have HBY := Lib.hid (drop_byte s i hi)
      by_cases h62 : s[i]'hi = 62
      · have d62 : (((s[i]'hi).toNat : Int) == 62) = true := by rw [h62]; rfl
        have hfin : atL (refL lgL true) (s.data.toList.drop k) = some (acc, false, s.data.toList.drop (i + 1)) := by
          rw [HST.out, HBY.out]
          simp only
          rw [if_pos h62]
        have HF := Lib.hid hfin
        clear hfin h62
        go_wp2_with fail
        refine bodyPost_ret (v := .tuple #[u8, .bool false, .bool true, .int .i64 ((i + 1 : Nat) : Int)]) (by simp [results, Tryz.results142, go_sem]) rfl ⟨u8, false, true, i + 1, acc, rfl, HBB.out, ?_, ?_, HROW.out, ?_, .inl ⟨rfl, HF.out⟩⟩
        all_goals (have := HKJ.out; have := HJI.out; have := HAL.out; have := HIS.out; omega)
      · have d62 : (((s[i]'hi).toNat : Int) == 62) = false := by
          rw [beq_eq_false_iff_ne]
          intro h
          exact h62 (UInt8.toNat_inj.1 (by show (s[i]'hi).toNat = 62; omega))
        by_cases h47 : s[i]'hi = 47
        · have d47 : (((s[i]'hi).toNat : Int) == 47) = true := by rw [h47]; rfl
          by_cases hi1 : i + 1 < s.size
          · have hi1I : (i : Int) + 1 < (s.size : Int) := by omega
            have HBY1 := Lib.hid (drop_byte s (i + 1) hi1)
            by_cases hn : s[i + 1]'hi1 = 62
            · have dn : (((s[i + 1]'hi1).toNat : Int) == 62) = true := by rw [hn]; rfl
              have hfin : atL (refL lgL true) (s.data.toList.drop k) = some (acc, true, s.data.toList.drop (i + 2)) := by
                rw [HST.out, HBY.out]
                simp only
                rw [if_neg h62, if_pos h47, HBY1.out, List.head?_cons, if_pos (by rw [hn]), List.drop_succ_cons, List.drop_zero]
              have HF := Lib.hid hfin
              clear hfin h62 h47 hn
              go_wp2_with fail
              refine bodyPost_ret (v := .tuple #[u8, .bool true, .bool true, .int .i64 ((i + 2 : Nat) : Int)]) (by simp [results, Tryz.results142, go_sem]) rfl ⟨u8, true, true, i + 2, acc, rfl, HBB.out, ?_, ?_, HROW.out, ?_, .inl ⟨rfl, HF.out⟩⟩
              all_goals (have := HKJ.out; have := HJI.out; have := HAL.out; have := HIS.out; omega)
            · have dn : (((s[i + 1]'hi1).toNat : Int) == 62) = false := by
                rw [beq_eq_false_iff_ne]
                intro h
                exact hn (UInt8.toNat_inj.1 (by show (s[i + 1]'hi1).toNat = 62; omega))
              have hst : atG (refL lgL true) acc (s.data.toList.drop (i + 1)) = atL (refL lgL true) (s.data.toList.drop k) := by
                rw [HST.out, HBY.out]
                simp only
                rw [if_neg h62, if_pos h47, if_neg (by rw [HBY1.out, List.head?_cons]; exact fun e => hn (Option.some.inj e))]
              have HF := Lib.hid hst
              clear hst h62 h47 hn
              go_wp2_with fail
              go_roundg (s.size - (i + 1))
              case measure => have := HGN.out; have := HJI.out; omega
              case rel => exact ⟨acc, i + 1, rfl, by go_num, by have := HKJ.out; have := HJI.out; omega, by omega, by have := HAL.out; have := HJI.out; omega, HF.out, HROW.out, HBB.out⟩
          · have hi1I : ¬ (i : Int) + 1 < (s.size : Int) := by omega
            have hst : atG (refL lgL true) acc (s.data.toList.drop (i + 1)) = atL (refL lgL true) (s.data.toList.drop k) := by
              rw [HST.out, HBY.out]
              simp only
              rw [if_neg h62, if_pos h47, if_neg (by rw [drop_end s (i + 1) (by omega)]; simp)]
            have HF := Lib.hid hst
            clear hst h62 h47
            go_wp2_with fail
            go_roundg (s.size - (i + 1))
            case measure => have := HGN.out; have := HJI.out; omega
            case rel => exact ⟨acc, i + 1, rfl, by go_num, by have := HKJ.out; have := HJI.out; omega, by omega, by have := HAL.out; have := HJI.out; omega, HF.out, HROW.out, HBB.out⟩
        · have d47 : (((s[i]'hi).toNat : Int) == 47) = false := by
            rw [beq_eq_false_iff_ne]
            intro h
            exact h47 (UInt8.toNat_inj.1 (by show (s[i]'hi).toNat = 47; omega))
          obtain ⟨kk, hkk⟩ : ∃ kk, kk = i + 1 + runN eqU (s.data.toList.drop (i + 1)) := ⟨_, rfl⟩
          have hrun := runN_in eqU s (i + 1)
          have hkks : kk ≤ s.size := by omega
          obtain ⟨i2, hki2, hi2s, hsk2, hS2⟩ := qSpacesAt2 s kk hkks (by have := HS.out; omega)
          obtain ⟨hrest, hname⟩ := attr_eq_at hi hkk hsk2
          have hst := HST.out
          rw [HBY.out] at hst
          simp only at hst
          rw [if_neg h62, if_neg h47, hrest, ← hname] at hst
          obtain ⟨X, hX⟩ : ∃ X, s.extract i kk = X := ⟨_, rfl⟩
          have hXl : X.data.toList = (s.data.toList.drop i).take (kk - i) := by
            have h := ext_take s i (kk - i) (by omega)
            rw [show i + (kk - i) = kk by omega, hX] at h
            exact h
          have hXs : X.size ≤ 100000 := by have := HS.out; rw [← hX, ByteArray.size_extract]; omega
          have HLO := Lib.hid (fun W => rLower X (by omega) W)
          have hnu := fun W => qNul (lowS X) (by rw [lowS_size]; omega) W
          obtain ⟨NM, hNM⟩ : ∃ V, V = bl (nulL (lowL ((s.data.toList.drop i).take (kk - i)))) := ⟨_, rfl⟩
          obtain ⟨Y, hY⟩ : ∃ Y, Y = bl (lowL ((s.data.toList.drop i).take (kk - i))) := ⟨_, rfl⟩
          rw [lowS_eq, hXl, show (bl (lowL ((s.data.toList.drop i).take (kk - i)))).data.toList = lowL ((s.data.toList.drop i).take (kk - i)) from rfl, ← hNM, ← hY] at hnu
          rw [lowS_eq, hXl, ← hY] at HLO
          have hNMl : NM.data.toList = nulL (lowL ((s.data.toList.drop i).take (kk - i))) := by rw [hNM]; rfl
          rw [← hNMl] at hst
          have HNU := Lib.hid hnu
          have HSTP := Lib.hid hst
          have HS2 := Lib.hid hS2
          have HBS := Lib.hid (fun j h0 h hj => before_stop eqU s (i + 1) j h0 h hj)
          have HAS := Lib.hid (at_stop eqU s (i + 1) hi)
          rw [← hkk] at HAS HBS
          have hkI : (i : Int) ≤ (kk : Int) := by omega
          have hkI2 : (kk : Int) ≤ (s.size : Int) := by omega
          have hikk : i + 1 ≤ kk := by omega
          have HI2S := Lib.hid hi2s
          have HKI2 := Lib.hid hki2
          clear h62 h47 hkk hrun hsk2 hS2 hrest hname hst hXl hXs hnu hNM hY hNMl HST hi2s hki2
          go_wp2_with fail
          go_loop [10] (fun q => ∃ c : Nat, i + 1 ≤ c ∧ c ≤ kk ∧ q = .int .i64 c) (fun q => kk - (intOf q).toNat)
          case atStart => exact ⟨i + 1, Nat.le_refl _, hikk, by go_num⟩
          case round =>
            obtain ⟨c, hc1, hc2, rfl⟩ := hrel
            by_cases hlt : c < kk
            · have hcs : c < s.size := by omega
              have hC : (c : Int) < (s.size : Int) := by omega
              have hb := HBS.out c hc1 hlt hcs
              unfold eqU at hb
              simp only [Bool.or_eq_false_iff, beq_eq_false_iff_ne] at hb
              have dc : (((s[c]'hcs).toNat : Int) != 61) = true := by
                rw [bne_iff_ne]
                intro h
                exact hb.2 (UInt8.toNat_inj.1 (by show (s[c]'hcs).toNat = 61; omega))
              have HSC := Lib.hid (fun W => HE.out (s[c]'hcs) W)
              rw [hb.1] at HSC
              clear hb
              go_wp2_with fail
              refine (HSC.out _).mono ?_
              rintro e w3 ⟨rfl, rfl⟩
              go_wp2_with fail
              go_round
              case rel => exact ⟨c + 1, by omega, by omega, by go_num⟩
              case measure => simp [intOf]; omega
            · have hck : c = kk := by omega
              subst hck
              clear hlt hc2
              rcases HAS.out with hz | ⟨hcs, hst⟩
              · have hC : ¬ (c : Int) < (s.size : Int) := by omega
                have HZ := Lib.hid hz
                clear hz
                go_wp2_with fail
                refine (HLO.out _).mono ?_
                rintro e wl ⟨rfl, hbl⟩
                have hB2 := below_next HBB.out hbl
                have hrow2 := ownA_below HROW.out hbl
                have HBB := Lib.hid hB2
                have HROW := Lib.hid hrow2
                clear hB2 hrow2 hbl
                go_wp2_with fail
                refine (HNU.out _).mono ?_
                rintro e wz ⟨rfl, rfl⟩
                go_wp2_with fail
                generalize hwa : World.alloc _ _ = wa
                have haa : wa.heap[wz.heap.size]? = some (.cells #[.int .i64 0, .string NM, .string ⟨#[]⟩] 31 (0, 0)) := by rw [← hwa]; exact Array.getElem?_push_size
                have hba : Below w1.heap.size w1 wa := by rw [← hwa]; exact below_alloc HBB.out _
                have hrowa : wa.ownsRow w1.heap.size 31 3 u8 acc.length (attrCells acc) := ownA_below HROW.out (by rw [← hwa]; exact below_alloc (Below.refl _ _) _)
                have hga : w1.heap.size ≤ wz.heap.size := HBB.out.size
                have hane : some wz.heap.size ≠ u8.ownBlock := fun e => absurd (HROW.out.lt _ e.symm).2 (Nat.lt_irrefl _)
                clear hwa
                generalize wz.heap.size = ab at haa hga hane ⊢
                have HAA := Lib.hid haa
                have HBW := Lib.hid hba
                have HROW := Lib.hid hrowa
                have HGA := Lib.hid hga
                have HANE := Lib.hid hane
                clear haa hba hrowa hga hane
                refine (HS2.out _).mono ?_
                rintro e wa ⟨rfl, rfl⟩
                have hI2 : ¬ (i2 : Int) < (s.size : Int) := by have := HKI2.out; omega
                have hr : atG (refL lgL true) (addL acc NM.data.toList (ByteArray.mk #[]).data.toList) (s.data.toList.drop i2) = atL (refL lgL true) (s.data.toList.drop k) := by
                  have h := HSTP.out
                  rw [if_neg (by rw [drop_end s i2 (by omega)]; simp)] at h
                  exact h.symm
                have HRES := Lib.hid hr
                have hN1 := HI2S.out
                have hN0 : i + 1 ≤ i2 := by have := HKI2.out; omega
                clear hr
                have ca0 : wa.cell? ⟨ab, 0, none⟩ = some (.int .i64 0) := heap_cell HAA.out 0
                have ca1 : wa.cell? ⟨ab, 1, none⟩ = some (.string NM) := heap_cell HAA.out 1
                have HKN := Lib.hid (qKnown u8 acc NM (by have := HAL.out; have := HJI.out; have := HIS.out; have := HS.out; omega) wa (attrRow_of HROW.out))
                obtain ⟨kn, hkn⟩ : ∃ kn, kn = knownL acc NM.data.toList := ⟨_, rfl⟩
                rw [← hkn] at HKN
                have HKNE := Lib.hid hkn
                clear hkn
                cases kn with
                | true =>
                  go_wp2_with fail
                  refine HKN.out.mono ?_
                  rintro e wk ⟨rfl, hbk⟩
                  go_wp2_with fail
                  go_roundg (s.size - i2)
                  case measure => have := HGN.out; have := HJI.out; omega
                  case rel =>
                    refine ⟨acc, i2, rfl, rfl, ?_, hN1, ?_, ?_, ownA_below HROW.out hbk, below_next HBW.out hbk⟩
                    · have := HKJ.out; have := HJI.out; omega
                    · have := HAL.out; have := HJI.out; omega
                    · rw [← HRES.out, addL_yes _ HKNE.out.symm]
                | false =>
                  go_wp2_with fail
                  refine HKN.out.mono ?_
                  rintro e wk ⟨rfl, hbk⟩
                  have hrowk := ownA_below HROW.out hbk
                  have hak := heap_below HAA.out hbk
                  have cb0 : wk.cell? ⟨ab, 0, none⟩ = some (.int .i64 0) := heap_cell hak 0
                  have cb1 : wk.cell? ⟨ab, 1, none⟩ = some (.string NM) := heap_cell hak 1
                  have cb2 : wk.cell? ⟨ab, 2, none⟩ = some (.string (ByteArray.mk #[])) := heap_cell hak 2
                  have hbelk := below_next HBW.out hbk
                  have hszb : w1.heap.size ≤ wk.heap.size := hbelk.size
                  have HROWK := Lib.hid hrowk
                  have HBK := Lib.hid hbelk
                  have hl1 : acc.length + 1 ≤ 1000001 := by have := HAL.out; have := HJI.out; have := HIS.out; have := HS.out; omega
                  obtain ⟨i0, hi0, hz0, hz1, hz2'⟩ := info_parts info_attr
                  clear hrowk hbelk hak hbk ca0 ca1
                  go_wp2_with (at_builtin; refine wpList_append_own _ rfl _ _ 25 rfl w1.heap.size 31 i0 (.agg #[.int .i64 0, .string ⟨#[]⟩, .string ⟨#[]⟩]) 3 40 Tryz.underlying25 hi0 hz0 hz1 hz2' rfl (by decide) _ _ _ rfl (HROWK.out.alloc _) ⟨wk.heap.size, 0, none⟩ 1 1 [.int .i64 0, .string NM, .string (ByteArray.mk #[])] rfl rfl (three_cell _ _ _ _ _) (three_one _ _) (by unfold maxLen; omega) (by omega) (by simp; omega) ?_; intro v' wc hown' hgrow _; have HOWN := Lib.hid hown'; have HGROW := Lib.hid hgrow; clear hown' hgrow)
                  go_roundg (s.size - i2)
                  case measure => have := HGN.out; have := HJI.out; omega
                  case rel =>
                    have hrow2 := HROWK.out.alloc (.cells #[.int .i64 0, .string NM, .string (ByteArray.mk #[])] 31)
                    refine ⟨acc ++ [(NM.data.toList, ((ByteArray.mk #[])).data.toList)], i2, rfl, rfl, ?_, hN1, ?_, ?_, ?_, ?_⟩
                    · have := HKJ.out; have := HJI.out; omega
                    · have := HAL.out; have := HJI.out; rw [List.length_append]; show acc.length + 1 ≤ _; omega
                    · rw [← HRES.out, addL_no _ HKNE.out.symm]
                    · rw [List.length_append, attrCells_snoc, bl_of, bl_of]
                      exact HOWN.out
                    · exact (below_alloc HBK.out _).grown HGROW.out (by simp; omega) (fun k e => (hrow2.lt k e).1)
              · have hC : (c : Int) < (s.size : Int) := by omega
                have HSC := Lib.hid (fun W => HE.out (s[c]'hcs) W)
                by_cases hen : enU (s[c]'hcs) = true
                · rw [hen] at HSC
                  clear hen hst
                  go_wp2_with fail
                  refine (HSC.out _).mono ?_
                  rintro e w3 ⟨rfl, rfl⟩
                  go_wp2_with fail
                  refine (HLO.out _).mono ?_
                  rintro e wl ⟨rfl, hbl⟩
                  have hB2 := below_next HBB.out hbl
                  have hrow2 := ownA_below HROW.out hbl
                  have HBB := Lib.hid hB2
                  have HROW := Lib.hid hrow2
                  clear hB2 hrow2 hbl
                  go_wp2_with fail
                  refine (HNU.out _).mono ?_
                  rintro e wz ⟨rfl, rfl⟩
                  go_wp2_with fail
                  generalize hwa : World.alloc _ _ = wa
                  have haa : wa.heap[wz.heap.size]? = some (.cells #[.int .i64 0, .string NM, .string ⟨#[]⟩] 31 (0, 0)) := by rw [← hwa]; exact Array.getElem?_push_size
                  have hba : Below w1.heap.size w1 wa := by rw [← hwa]; exact below_alloc HBB.out _
                  have hrowa : wa.ownsRow w1.heap.size 31 3 u8 acc.length (attrCells acc) := ownA_below HROW.out (by rw [← hwa]; exact below_alloc (Below.refl _ _) _)
                  have hga : w1.heap.size ≤ wz.heap.size := HBB.out.size
                  have hane : some wz.heap.size ≠ u8.ownBlock := fun e => absurd (HROW.out.lt _ e.symm).2 (Nat.lt_irrefl _)
                  clear hwa
                  generalize wz.heap.size = ab at haa hga hane ⊢
                  have HAA := Lib.hid haa
                  have HBW := Lib.hid hba
                  have HROW := Lib.hid hrowa
                  have HGA := Lib.hid hga
                  have HANE := Lib.hid hane
                  clear haa hba hrowa hga hane
                  refine (HS2.out _).mono ?_
                  rintro e wa ⟨rfl, rfl⟩
                  by_cases hi2 : i2 < s.size
                  · have hI2 : (i2 : Int) < (s.size : Int) := by omega
                    have hb2 := drop_byte s i2 hi2
                    by_cases h61 : s[i2]'hi2 = 61
                    · have d61 : (((s[i2]'hi2).toNat : Int) == 61) = true := by rw [h61]; rfl
                      have hst := HSTP.out
                      rw [if_pos (by rw [hb2, List.head?_cons, h61]), List.drop_drop] at hst
                      have HST2 := Lib.hid hst
                      have hcl : clip s ((i2 : Int) + 1) = i2 + 1 := clip_nat s (i2 + 1) (by omega)
                      have HV := Lib.hid (fun W => qValue s ((i2 : Int) + 1) HS.out W)
                      rw [hcl] at HV
                      have f2 : wa.frozen? ⟨ab, 2, none⟩ = false := heap_frozen HAA.out 2
                      have c2 : wa.cell? ⟨ab, 2, none⟩ = some (.string ⟨#[]⟩) := heap_cell HAA.out 2
                      clear h61 hb2 hst hcl
                      go_wp2_with fail
                      refine (HV.out _).mono ?_
                      rintro e wv ⟨V, cl, N, rfl, hN1, hor, hbv⟩
                      have hN0 : i + 1 ≤ N := by
                        rcases hor with ⟨rfl, h⟩ | ⟨_, _, h, _⟩
                        · have hl := vaL_len h
                          rw [List.length_drop, List.length_drop, size_list] at hl
                          have := HKI2.out
                          omega
                        · omega
                      have HOR := Lib.hid hor
                      have hBv := below_next HBW.out hbv
                      have hav := heap_below HAA.out hbv
                      have hrowv := ownA_below HROW.out hbv
                      have f2 : wv.frozen? ⟨ab, 2, none⟩ = false := heap_frozen hav 2
                      have c2 : wv.cell? ⟨ab, 2, none⟩ = some (.string ⟨#[]⟩) := heap_cell hav 2
                      have c1 : wv.cell? ⟨ab, 1, none⟩ = some (.string NM) := heap_cell hav 1
                      have c0 : wv.cell? ⟨ab, 0, none⟩ = some (.int .i64 0) := heap_cell hav 0
                      have HAV := Lib.hid hav
                      have HBV := Lib.hid hBv
                      have HROWV := Lib.hid hrowv
                      clear hor hBv hav hrowv hbv
                      cases cl with
                      | false =>
                        have hfin : atL (refL lgL true) (s.data.toList.drop k) = none := by
                          rcases HOR.out with ⟨h, _⟩ | ⟨_, _, _, h⟩
                          · cases h
                          · have h2 := HST2.out
                            rw [h] at h2
                            exact h2
                        have HF := Lib.hid hfin
                        clear hfin
                        go_wp2_with fail
                        refine bodyPost_ret (v := .tuple #[.slice none 0 0, .bool false, .bool false, .int .i64 s.size]) (by simp [results, Tryz.results142, go_sem]) rfl ⟨_, false, false, s.size, [], rfl, HBV.out, ?_, Nat.le_refl _, World.ownsRow_nil _ _ _ _, Nat.zero_le _, .inr ⟨rfl, rfl, rfl, rfl, rfl, HF.out⟩⟩
                        have := HKJ.out; have := HJI.out; have := HIS.out; omega
                      | true =>
                        have hr : atG (refL lgL true) (addL acc NM.data.toList V.data.toList) (s.data.toList.drop N) = atL (refL lgL true) (s.data.toList.drop k) := by
                          rcases HOR.out with ⟨_, h⟩ | ⟨h, _⟩
                          · have h2 := HST2.out
                            rw [h] at h2
                            exact h2.symm
                          · cases h
                        have HRES := Lib.hid hr
                        clear hr
                        go_wp2_with fail
                        generalize hwb : World.setCell _ _ _ = wb
                        have hab : wb.heap[ab]? = some (.cells #[.int .i64 0, .string NM, .string V] 31 (0, 0)) := by rw [← hwb]; exact heap_set HAV.out 2 _
                        have hbut : But ab wv wb := by rw [← hwb]; exact But.set _ _ _ _
                        have hBb : Below w1.heap.size w1 wb := below_but HBV.out hbut HGA.out
                        have hrowb := ownA_cell HROWV.out HANE.out hbut
                        clear hwb hbut
                        have HAA := Lib.hid hab
                        have HBW := Lib.hid hBb
                        have HROW := Lib.hid hrowb
                        clear hab hBb hrowb
                        have ca0 : wb.cell? ⟨ab, 0, none⟩ = some (.int .i64 0) := heap_cell HAA.out 0
                        have ca1 : wb.cell? ⟨ab, 1, none⟩ = some (.string NM) := heap_cell HAA.out 1
                        have HKN := Lib.hid (qKnown u8 acc NM (by have := HAL.out; have := HJI.out; have := HIS.out; have := HS.out; omega) wb (attrRow_of HROW.out))
                        obtain ⟨kn, hkn⟩ : ∃ kn, kn = knownL acc NM.data.toList := ⟨_, rfl⟩
                        rw [← hkn] at HKN
                        have HKNE := Lib.hid hkn
                        clear hkn
                        cases kn with
                        | true =>
                          skip
                          refine HKN.out.mono ?_
                          rintro e wk ⟨rfl, hbk⟩
                          go_wp2_with fail
                          go_roundg (s.size - N)
                          case measure => have := HGN.out; have := HJI.out; omega
                          case rel =>
                            refine ⟨acc, N, rfl, rfl, ?_, hN1, ?_, ?_, ownA_below HROW.out hbk, below_next HBW.out hbk⟩
                            · have := HKJ.out; have := HJI.out; omega
                            · have := HAL.out; have := HJI.out; omega
                            · rw [← HRES.out, addL_yes _ HKNE.out.symm]
                        | false =>
                          skip
                          refine HKN.out.mono ?_
                          rintro e wk ⟨rfl, hbk⟩
                          have hrowk := ownA_below HROW.out hbk
                          have hak := heap_below HAA.out hbk
                          have cb0 : wk.cell? ⟨ab, 0, none⟩ = some (.int .i64 0) := heap_cell hak 0
                          have cb1 : wk.cell? ⟨ab, 1, none⟩ = some (.string NM) := heap_cell hak 1
                          have cb2 : wk.cell? ⟨ab, 2, none⟩ = some (.string V) := heap_cell hak 2
                          have hbelk := below_next HBW.out hbk
                          have hszb : w1.heap.size ≤ wk.heap.size := hbelk.size
                          have HROWK := Lib.hid hrowk
                          have HBK := Lib.hid hbelk
                          have hl1 : acc.length + 1 ≤ 1000001 := by have := HAL.out; have := HJI.out; have := HIS.out; have := HS.out; omega
                          obtain ⟨i0, hi0, hz0, hz1, hz2'⟩ := info_parts info_attr
                          clear hrowk hbelk hak hbk ca0 ca1
                          go_wp2_with (at_builtin; refine wpList_append_own _ rfl _ _ 25 rfl w1.heap.size 31 i0 (.agg #[.int .i64 0, .string ⟨#[]⟩, .string ⟨#[]⟩]) 3 40 Tryz.underlying25 hi0 hz0 hz1 hz2' rfl (by decide) _ _ _ rfl (HROWK.out.alloc _) ⟨wk.heap.size, 0, none⟩ 1 1 [.int .i64 0, .string NM, .string V] rfl rfl (three_cell _ _ _ _ _) (three_one _ _) (by unfold maxLen; omega) (by omega) (by simp; omega) ?_; intro v' wc hown' hgrow _; have HOWN := Lib.hid hown'; have HGROW := Lib.hid hgrow; clear hown' hgrow)
                          go_roundg (s.size - N)
                          case measure => have := HGN.out; have := HJI.out; omega
                          case rel =>
                            have hrow2 := HROWK.out.alloc (.cells #[.int .i64 0, .string NM, .string V] 31)
                            refine ⟨acc ++ [(NM.data.toList, (V).data.toList)], N, rfl, rfl, ?_, hN1, ?_, ?_, ?_, ?_⟩
                            · have := HKJ.out; have := HJI.out; omega
                            · have := HAL.out; have := HJI.out; rw [List.length_append]; show acc.length + 1 ≤ _; omega
                            · rw [← HRES.out, addL_no _ HKNE.out.symm]
                            · rw [List.length_append, attrCells_snoc, bl_of, bl_of]
                              exact HOWN.out
                            · exact (below_alloc HBK.out _).grown HGROW.out (by simp; omega) (fun k e => (hrow2.lt k e).1)
                    · have d61 : (((s[i2]'hi2).toNat : Int) == 61) = false := by
                        rw [beq_eq_false_iff_ne]
                        intro h
                        exact h61 (UInt8.toNat_inj.1 (by show (s[i2]'hi2).toNat = 61; omega))
                      have hr : atG (refL lgL true) (addL acc NM.data.toList (ByteArray.mk #[]).data.toList) (s.data.toList.drop i2) = atL (refL lgL true) (s.data.toList.drop k) := by
                        have h := HSTP.out
                        rw [if_neg (by rw [hb2, List.head?_cons]; exact fun e => h61 (Option.some.inj e))] at h
                        exact h.symm
                      have HRES := Lib.hid hr
                      have hN1 := HI2S.out
                      have hN0 : i + 1 ≤ i2 := by have := HKI2.out; omega
                      clear hr h61 hb2
                      have ca0 : wa.cell? ⟨ab, 0, none⟩ = some (.int .i64 0) := heap_cell HAA.out 0
                      have ca1 : wa.cell? ⟨ab, 1, none⟩ = some (.string NM) := heap_cell HAA.out 1
                      have HKN := Lib.hid (qKnown u8 acc NM (by have := HAL.out; have := HJI.out; have := HIS.out; have := HS.out; omega) wa (attrRow_of HROW.out))
                      obtain ⟨kn, hkn⟩ : ∃ kn, kn = knownL acc NM.data.toList := ⟨_, rfl⟩
                      rw [← hkn] at HKN
                      have HKNE := Lib.hid hkn
                      clear hkn
                      cases kn with
                      | true =>
                        go_wp2_with fail
                        refine HKN.out.mono ?_
                        rintro e wk ⟨rfl, hbk⟩
                        go_wp2_with fail
                        go_roundg (s.size - i2)
                        case measure => have := HGN.out; have := HJI.out; omega
                        case rel =>
                          refine ⟨acc, i2, rfl, rfl, ?_, hN1, ?_, ?_, ownA_below HROW.out hbk, below_next HBW.out hbk⟩
                          · have := HKJ.out; have := HJI.out; omega
                          · have := HAL.out; have := HJI.out; omega
                          · rw [← HRES.out, addL_yes _ HKNE.out.symm]
                      | false =>
                        go_wp2_with fail
                        refine HKN.out.mono ?_
                        rintro e wk ⟨rfl, hbk⟩
                        have hrowk := ownA_below HROW.out hbk
                        have hak := heap_below HAA.out hbk
                        have cb0 : wk.cell? ⟨ab, 0, none⟩ = some (.int .i64 0) := heap_cell hak 0
                        have cb1 : wk.cell? ⟨ab, 1, none⟩ = some (.string NM) := heap_cell hak 1
                        have cb2 : wk.cell? ⟨ab, 2, none⟩ = some (.string (ByteArray.mk #[])) := heap_cell hak 2
                        have hbelk := below_next HBW.out hbk
                        have hszb : w1.heap.size ≤ wk.heap.size := hbelk.size
                        have HROWK := Lib.hid hrowk
                        have HBK := Lib.hid hbelk
                        have hl1 : acc.length + 1 ≤ 1000001 := by have := HAL.out; have := HJI.out; have := HIS.out; have := HS.out; omega
                        obtain ⟨i0, hi0, hz0, hz1, hz2'⟩ := info_parts info_attr
                        clear hrowk hbelk hak hbk ca0 ca1
                        go_wp2_with (at_builtin; refine wpList_append_own _ rfl _ _ 25 rfl w1.heap.size 31 i0 (.agg #[.int .i64 0, .string ⟨#[]⟩, .string ⟨#[]⟩]) 3 40 Tryz.underlying25 hi0 hz0 hz1 hz2' rfl (by decide) _ _ _ rfl (HROWK.out.alloc _) ⟨wk.heap.size, 0, none⟩ 1 1 [.int .i64 0, .string NM, .string (ByteArray.mk #[])] rfl rfl (three_cell _ _ _ _ _) (three_one _ _) (by unfold maxLen; omega) (by omega) (by simp; omega) ?_; intro v' wc hown' hgrow _; have HOWN := Lib.hid hown'; have HGROW := Lib.hid hgrow; clear hown' hgrow)
                        go_roundg (s.size - i2)
                        case measure => have := HGN.out; have := HJI.out; omega
                        case rel =>
                          have hrow2 := HROWK.out.alloc (.cells #[.int .i64 0, .string NM, .string (ByteArray.mk #[])] 31)
                          refine ⟨acc ++ [(NM.data.toList, ((ByteArray.mk #[])).data.toList)], i2, rfl, rfl, ?_, hN1, ?_, ?_, ?_, ?_⟩
                          · have := HKJ.out; have := HJI.out; omega
                          · have := HAL.out; have := HJI.out; rw [List.length_append]; show acc.length + 1 ≤ _; omega
                          · rw [← HRES.out, addL_no _ HKNE.out.symm]
                          · rw [List.length_append, attrCells_snoc, bl_of, bl_of]
                            exact HOWN.out
                          · exact (below_alloc HBK.out _).grown HGROW.out (by simp; omega) (fun k e => (hrow2.lt k e).1)
                  · have hI2 : ¬ (i2 : Int) < (s.size : Int) := by omega
                    have hr : atG (refL lgL true) (addL acc NM.data.toList (ByteArray.mk #[]).data.toList) (s.data.toList.drop i2) = atL (refL lgL true) (s.data.toList.drop k) := by
                      have h := HSTP.out
                      rw [if_neg (by rw [drop_end s i2 (by omega)]; simp)] at h
                      exact h.symm
                    have HRES := Lib.hid hr
                    have hN1 := HI2S.out
                    have hN0 : i + 1 ≤ i2 := by have := HKI2.out; omega
                    clear hr
                    have ca0 : wa.cell? ⟨ab, 0, none⟩ = some (.int .i64 0) := heap_cell HAA.out 0
                    have ca1 : wa.cell? ⟨ab, 1, none⟩ = some (.string NM) := heap_cell HAA.out 1
                    have HKN := Lib.hid (qKnown u8 acc NM (by have := HAL.out; have := HJI.out; have := HIS.out; have := HS.out; omega) wa (attrRow_of HROW.out))
                    obtain ⟨kn, hkn⟩ : ∃ kn, kn = knownL acc NM.data.toList := ⟨_, rfl⟩
                    rw [← hkn] at HKN
                    have HKNE := Lib.hid hkn
                    clear hkn
                    cases kn with
                    | true =>
                      go_wp2_with fail
                      refine HKN.out.mono ?_
                      rintro e wk ⟨rfl, hbk⟩
                      go_wp2_with fail
                      go_roundg (s.size - i2)
                      case measure => have := HGN.out; have := HJI.out; omega
                      case rel =>
                        refine ⟨acc, i2, rfl, rfl, ?_, hN1, ?_, ?_, ownA_below HROW.out hbk, below_next HBW.out hbk⟩
                        · have := HKJ.out; have := HJI.out; omega
                        · have := HAL.out; have := HJI.out; omega
                        · rw [← HRES.out, addL_yes _ HKNE.out.symm]
                    | false =>
                      go_wp2_with fail
                      refine HKN.out.mono ?_
                      rintro e wk ⟨rfl, hbk⟩
                      have hrowk := ownA_below HROW.out hbk
                      have hak := heap_below HAA.out hbk
                      have cb0 : wk.cell? ⟨ab, 0, none⟩ = some (.int .i64 0) := heap_cell hak 0
                      have cb1 : wk.cell? ⟨ab, 1, none⟩ = some (.string NM) := heap_cell hak 1
                      have cb2 : wk.cell? ⟨ab, 2, none⟩ = some (.string (ByteArray.mk #[])) := heap_cell hak 2
                      have hbelk := below_next HBW.out hbk
                      have hszb : w1.heap.size ≤ wk.heap.size := hbelk.size
                      have HROWK := Lib.hid hrowk
                      have HBK := Lib.hid hbelk
                      have hl1 : acc.length + 1 ≤ 1000001 := by have := HAL.out; have := HJI.out; have := HIS.out; have := HS.out; omega
                      obtain ⟨i0, hi0, hz0, hz1, hz2'⟩ := info_parts info_attr
                      clear hrowk hbelk hak hbk ca0 ca1
                      go_wp2_with (at_builtin; refine wpList_append_own _ rfl _ _ 25 rfl w1.heap.size 31 i0 (.agg #[.int .i64 0, .string ⟨#[]⟩, .string ⟨#[]⟩]) 3 40 Tryz.underlying25 hi0 hz0 hz1 hz2' rfl (by decide) _ _ _ rfl (HROWK.out.alloc _) ⟨wk.heap.size, 0, none⟩ 1 1 [.int .i64 0, .string NM, .string (ByteArray.mk #[])] rfl rfl (three_cell _ _ _ _ _) (three_one _ _) (by unfold maxLen; omega) (by omega) (by simp; omega) ?_; intro v' wc hown' hgrow _; have HOWN := Lib.hid hown'; have HGROW := Lib.hid hgrow; clear hown' hgrow)
                      go_roundg (s.size - i2)
                      case measure => have := HGN.out; have := HJI.out; omega
                      case rel =>
                        have hrow2 := HROWK.out.alloc (.cells #[.int .i64 0, .string NM, .string (ByteArray.mk #[])] 31)
                        refine ⟨acc ++ [(NM.data.toList, ((ByteArray.mk #[])).data.toList)], i2, rfl, rfl, ?_, hN1, ?_, ?_, ?_, ?_⟩
                        · have := HKJ.out; have := HJI.out; omega
                        · have := HAL.out; have := HJI.out; rw [List.length_append]; show acc.length + 1 ≤ _; omega
                        · rw [← HRES.out, addL_no _ HKNE.out.symm]
                        · rw [List.length_append, attrCells_snoc, bl_of, bl_of]
                          exact HOWN.out
                        · exact (below_alloc HBK.out _).grown HGROW.out (by simp; omega) (fun k e => (hrow2.lt k e).1)
                · have hen2 : enU (s[c]'hcs) = false := by simpa using hen
                  rw [hen2] at HSC
                  have dc : (((s[c]'hcs).toNat : Int) != 61) = false := by
                    unfold eqU at hst
                    simp only [Bool.or_eq_true, beq_iff_eq] at hst
                    rcases hst with h | h
                    · exact absurd h hen
                    · rw [h]; rfl
                  clear hen hen2 hst
                  go_wp2_with fail
                  refine (HSC.out _).mono ?_
                  rintro e w3 ⟨rfl, rfl⟩
                  go_wp2_with fail
                  refine (HLO.out _).mono ?_
                  rintro e wl ⟨rfl, hbl⟩
                  have hB2 := below_next HBB.out hbl
                  have hrow2 := ownA_below HROW.out hbl
                  have HBB := Lib.hid hB2
                  have HROW := Lib.hid hrow2
                  clear hB2 hrow2 hbl
                  go_wp2_with fail
                  refine (HNU.out _).mono ?_
                  rintro e wz ⟨rfl, rfl⟩
                  go_wp2_with fail
                  generalize hwa : World.alloc _ _ = wa
                  have haa : wa.heap[wz.heap.size]? = some (.cells #[.int .i64 0, .string NM, .string ⟨#[]⟩] 31 (0, 0)) := by rw [← hwa]; exact Array.getElem?_push_size
                  have hba : Below w1.heap.size w1 wa := by rw [← hwa]; exact below_alloc HBB.out _
                  have hrowa : wa.ownsRow w1.heap.size 31 3 u8 acc.length (attrCells acc) := ownA_below HROW.out (by rw [← hwa]; exact below_alloc (Below.refl _ _) _)
                  have hga : w1.heap.size ≤ wz.heap.size := HBB.out.size
                  have hane : some wz.heap.size ≠ u8.ownBlock := fun e => absurd (HROW.out.lt _ e.symm).2 (Nat.lt_irrefl _)
                  clear hwa
                  generalize wz.heap.size = ab at haa hga hane ⊢
                  have HAA := Lib.hid haa
                  have HBW := Lib.hid hba
                  have HROW := Lib.hid hrowa
                  have HGA := Lib.hid hga
                  have HANE := Lib.hid hane
                  clear haa hba hrowa hga hane
                  refine (HS2.out _).mono ?_
                  rintro e wa ⟨rfl, rfl⟩
                  by_cases hi2 : i2 < s.size
                  · have hI2 : (i2 : Int) < (s.size : Int) := by omega
                    have hb2 := drop_byte s i2 hi2
                    by_cases h61 : s[i2]'hi2 = 61
                    · have d61 : (((s[i2]'hi2).toNat : Int) == 61) = true := by rw [h61]; rfl
                      have hst := HSTP.out
                      rw [if_pos (by rw [hb2, List.head?_cons, h61]), List.drop_drop] at hst
                      have HST2 := Lib.hid hst
                      have hcl : clip s ((i2 : Int) + 1) = i2 + 1 := clip_nat s (i2 + 1) (by omega)
                      have HV := Lib.hid (fun W => qValue s ((i2 : Int) + 1) HS.out W)
                      rw [hcl] at HV
                      have f2 : wa.frozen? ⟨ab, 2, none⟩ = false := heap_frozen HAA.out 2
                      have c2 : wa.cell? ⟨ab, 2, none⟩ = some (.string ⟨#[]⟩) := heap_cell HAA.out 2
                      clear h61 hb2 hst hcl
                      go_wp2_with fail
                      refine (HV.out _).mono ?_
                      rintro e wv ⟨V, cl, N, rfl, hN1, hor, hbv⟩
                      have hN0 : i + 1 ≤ N := by
                        rcases hor with ⟨rfl, h⟩ | ⟨_, _, h, _⟩
                        · have hl := vaL_len h
                          rw [List.length_drop, List.length_drop, size_list] at hl
                          have := HKI2.out
                          omega
                        · omega
                      have HOR := Lib.hid hor
                      have hBv := below_next HBW.out hbv
                      have hav := heap_below HAA.out hbv
                      have hrowv := ownA_below HROW.out hbv
                      have f2 : wv.frozen? ⟨ab, 2, none⟩ = false := heap_frozen hav 2
                      have c2 : wv.cell? ⟨ab, 2, none⟩ = some (.string ⟨#[]⟩) := heap_cell hav 2
                      have c1 : wv.cell? ⟨ab, 1, none⟩ = some (.string NM) := heap_cell hav 1
                      have c0 : wv.cell? ⟨ab, 0, none⟩ = some (.int .i64 0) := heap_cell hav 0
                      have HAV := Lib.hid hav
                      have HBV := Lib.hid hBv
                      have HROWV := Lib.hid hrowv
                      clear hor hBv hav hrowv hbv
                      cases cl with
                      | false =>
                        have hfin : atL (refL lgL true) (s.data.toList.drop k) = none := by
                          rcases HOR.out with ⟨h, _⟩ | ⟨_, _, _, h⟩
                          · cases h
                          · have h2 := HST2.out
                            rw [h] at h2
                            exact h2
                        have HF := Lib.hid hfin
                        clear hfin
                        go_wp2_with fail
                        refine bodyPost_ret (v := .tuple #[.slice none 0 0, .bool false, .bool false, .int .i64 s.size]) (by simp [results, Tryz.results142, go_sem]) rfl ⟨_, false, false, s.size, [], rfl, HBV.out, ?_, Nat.le_refl _, World.ownsRow_nil _ _ _ _, Nat.zero_le _, .inr ⟨rfl, rfl, rfl, rfl, rfl, HF.out⟩⟩
                        have := HKJ.out; have := HJI.out; have := HIS.out; omega
                      | true =>
                        have hr : atG (refL lgL true) (addL acc NM.data.toList V.data.toList) (s.data.toList.drop N) = atL (refL lgL true) (s.data.toList.drop k) := by
                          rcases HOR.out with ⟨_, h⟩ | ⟨h, _⟩
                          · have h2 := HST2.out
                            rw [h] at h2
                            exact h2.symm
                          · cases h
                        have HRES := Lib.hid hr
                        clear hr
                        go_wp2_with fail
                        generalize hwb : World.setCell _ _ _ = wb
                        have hab : wb.heap[ab]? = some (.cells #[.int .i64 0, .string NM, .string V] 31 (0, 0)) := by rw [← hwb]; exact heap_set HAV.out 2 _
                        have hbut : But ab wv wb := by rw [← hwb]; exact But.set _ _ _ _
                        have hBb : Below w1.heap.size w1 wb := below_but HBV.out hbut HGA.out
                        have hrowb := ownA_cell HROWV.out HANE.out hbut
                        clear hwb hbut
                        have HAA := Lib.hid hab
                        have HBW := Lib.hid hBb
                        have HROW := Lib.hid hrowb
                        clear hab hBb hrowb
                        have ca0 : wb.cell? ⟨ab, 0, none⟩ = some (.int .i64 0) := heap_cell HAA.out 0
                        have ca1 : wb.cell? ⟨ab, 1, none⟩ = some (.string NM) := heap_cell HAA.out 1
                        have HKN := Lib.hid (qKnown u8 acc NM (by have := HAL.out; have := HJI.out; have := HIS.out; have := HS.out; omega) wb (attrRow_of HROW.out))
                        obtain ⟨kn, hkn⟩ : ∃ kn, kn = knownL acc NM.data.toList := ⟨_, rfl⟩
                        rw [← hkn] at HKN
                        have HKNE := Lib.hid hkn
                        clear hkn
                        cases kn with
                        | true =>
                          skip
                          refine HKN.out.mono ?_
                          rintro e wk ⟨rfl, hbk⟩
                          go_wp2_with fail
                          go_roundg (s.size - N)
                          case measure => have := HGN.out; have := HJI.out; omega
                          case rel =>
                            refine ⟨acc, N, rfl, rfl, ?_, hN1, ?_, ?_, ownA_below HROW.out hbk, below_next HBW.out hbk⟩
                            · have := HKJ.out; have := HJI.out; omega
                            · have := HAL.out; have := HJI.out; omega
                            · rw [← HRES.out, addL_yes _ HKNE.out.symm]
                        | false =>
                          skip
                          refine HKN.out.mono ?_
                          rintro e wk ⟨rfl, hbk⟩
                          have hrowk := ownA_below HROW.out hbk
                          have hak := heap_below HAA.out hbk
                          have cb0 : wk.cell? ⟨ab, 0, none⟩ = some (.int .i64 0) := heap_cell hak 0
                          have cb1 : wk.cell? ⟨ab, 1, none⟩ = some (.string NM) := heap_cell hak 1
                          have cb2 : wk.cell? ⟨ab, 2, none⟩ = some (.string V) := heap_cell hak 2
                          have hbelk := below_next HBW.out hbk
                          have hszb : w1.heap.size ≤ wk.heap.size := hbelk.size
                          have HROWK := Lib.hid hrowk
                          have HBK := Lib.hid hbelk
                          have hl1 : acc.length + 1 ≤ 1000001 := by have := HAL.out; have := HJI.out; have := HIS.out; have := HS.out; omega
                          obtain ⟨i0, hi0, hz0, hz1, hz2'⟩ := info_parts info_attr
                          clear hrowk hbelk hak hbk ca0 ca1
                          go_wp2_with (at_builtin; refine wpList_append_own _ rfl _ _ 25 rfl w1.heap.size 31 i0 (.agg #[.int .i64 0, .string ⟨#[]⟩, .string ⟨#[]⟩]) 3 40 Tryz.underlying25 hi0 hz0 hz1 hz2' rfl (by decide) _ _ _ rfl (HROWK.out.alloc _) ⟨wk.heap.size, 0, none⟩ 1 1 [.int .i64 0, .string NM, .string V] rfl rfl (three_cell _ _ _ _ _) (three_one _ _) (by unfold maxLen; omega) (by omega) (by simp; omega) ?_; intro v' wc hown' hgrow _; have HOWN := Lib.hid hown'; have HGROW := Lib.hid hgrow; clear hown' hgrow)
                          go_roundg (s.size - N)
                          case measure => have := HGN.out; have := HJI.out; omega
                          case rel =>
                            have hrow2 := HROWK.out.alloc (.cells #[.int .i64 0, .string NM, .string V] 31)
                            refine ⟨acc ++ [(NM.data.toList, (V).data.toList)], N, rfl, rfl, ?_, hN1, ?_, ?_, ?_, ?_⟩
                            · have := HKJ.out; have := HJI.out; omega
                            · have := HAL.out; have := HJI.out; rw [List.length_append]; show acc.length + 1 ≤ _; omega
                            · rw [← HRES.out, addL_no _ HKNE.out.symm]
                            · rw [List.length_append, attrCells_snoc, bl_of, bl_of]
                              exact HOWN.out
                            · exact (below_alloc HBK.out _).grown HGROW.out (by simp; omega) (fun k e => (hrow2.lt k e).1)
                    · have d61 : (((s[i2]'hi2).toNat : Int) == 61) = false := by
                        rw [beq_eq_false_iff_ne]
                        intro h
                        exact h61 (UInt8.toNat_inj.1 (by show (s[i2]'hi2).toNat = 61; omega))
                      have hr : atG (refL lgL true) (addL acc NM.data.toList (ByteArray.mk #[]).data.toList) (s.data.toList.drop i2) = atL (refL lgL true) (s.data.toList.drop k) := by
                        have h := HSTP.out
                        rw [if_neg (by rw [hb2, List.head?_cons]; exact fun e => h61 (Option.some.inj e))] at h
                        exact h.symm
                      have HRES := Lib.hid hr
                      have hN1 := HI2S.out
                      have hN0 : i + 1 ≤ i2 := by have := HKI2.out; omega
                      clear hr h61 hb2
                      have ca0 : wa.cell? ⟨ab, 0, none⟩ = some (.int .i64 0) := heap_cell HAA.out 0
                      have ca1 : wa.cell? ⟨ab, 1, none⟩ = some (.string NM) := heap_cell HAA.out 1
                      have HKN := Lib.hid (qKnown u8 acc NM (by have := HAL.out; have := HJI.out; have := HIS.out; have := HS.out; omega) wa (attrRow_of HROW.out))
                      obtain ⟨kn, hkn⟩ : ∃ kn, kn = knownL acc NM.data.toList := ⟨_, rfl⟩
                      rw [← hkn] at HKN
                      have HKNE := Lib.hid hkn
                      clear hkn
                      cases kn with
                      | true =>
                        go_wp2_with fail
                        refine HKN.out.mono ?_
                        rintro e wk ⟨rfl, hbk⟩
                        go_wp2_with fail
                        go_roundg (s.size - i2)
                        case measure => have := HGN.out; have := HJI.out; omega
                        case rel =>
                          refine ⟨acc, i2, rfl, rfl, ?_, hN1, ?_, ?_, ownA_below HROW.out hbk, below_next HBW.out hbk⟩
                          · have := HKJ.out; have := HJI.out; omega
                          · have := HAL.out; have := HJI.out; omega
                          · rw [← HRES.out, addL_yes _ HKNE.out.symm]
                      | false =>
                        go_wp2_with fail
                        refine HKN.out.mono ?_
                        rintro e wk ⟨rfl, hbk⟩
                        have hrowk := ownA_below HROW.out hbk
                        have hak := heap_below HAA.out hbk
                        have cb0 : wk.cell? ⟨ab, 0, none⟩ = some (.int .i64 0) := heap_cell hak 0
                        have cb1 : wk.cell? ⟨ab, 1, none⟩ = some (.string NM) := heap_cell hak 1
                        have cb2 : wk.cell? ⟨ab, 2, none⟩ = some (.string (ByteArray.mk #[])) := heap_cell hak 2
                        have hbelk := below_next HBW.out hbk
                        have hszb : w1.heap.size ≤ wk.heap.size := hbelk.size
                        have HROWK := Lib.hid hrowk
                        have HBK := Lib.hid hbelk
                        have hl1 : acc.length + 1 ≤ 1000001 := by have := HAL.out; have := HJI.out; have := HIS.out; have := HS.out; omega
                        obtain ⟨i0, hi0, hz0, hz1, hz2'⟩ := info_parts info_attr
                        clear hrowk hbelk hak hbk ca0 ca1
                        go_wp2_with (at_builtin; refine wpList_append_own _ rfl _ _ 25 rfl w1.heap.size 31 i0 (.agg #[.int .i64 0, .string ⟨#[]⟩, .string ⟨#[]⟩]) 3 40 Tryz.underlying25 hi0 hz0 hz1 hz2' rfl (by decide) _ _ _ rfl (HROWK.out.alloc _) ⟨wk.heap.size, 0, none⟩ 1 1 [.int .i64 0, .string NM, .string (ByteArray.mk #[])] rfl rfl (three_cell _ _ _ _ _) (three_one _ _) (by unfold maxLen; omega) (by omega) (by simp; omega) ?_; intro v' wc hown' hgrow _; have HOWN := Lib.hid hown'; have HGROW := Lib.hid hgrow; clear hown' hgrow)
                        go_roundg (s.size - i2)
                        case measure => have := HGN.out; have := HJI.out; omega
                        case rel =>
                          have hrow2 := HROWK.out.alloc (.cells #[.int .i64 0, .string NM, .string (ByteArray.mk #[])] 31)
                          refine ⟨acc ++ [(NM.data.toList, ((ByteArray.mk #[])).data.toList)], i2, rfl, rfl, ?_, hN1, ?_, ?_, ?_, ?_⟩
                          · have := HKJ.out; have := HJI.out; omega
                          · have := HAL.out; have := HJI.out; rw [List.length_append]; show acc.length + 1 ≤ _; omega
                          · rw [← HRES.out, addL_no _ HKNE.out.symm]
                          · rw [List.length_append, attrCells_snoc, bl_of, bl_of]
                            exact HOWN.out
                          · exact (below_alloc HBK.out _).grown HGROW.out (by simp; omega) (fun k e => (hrow2.lt k e).1)
                  · have hI2 : ¬ (i2 : Int) < (s.size : Int) := by omega
                    have hr : atG (refL lgL true) (addL acc NM.data.toList (ByteArray.mk #[]).data.toList) (s.data.toList.drop i2) = atL (refL lgL true) (s.data.toList.drop k) := by
                      have h := HSTP.out
                      rw [if_neg (by rw [drop_end s i2 (by omega)]; simp)] at h
                      exact h.symm
                    have HRES := Lib.hid hr
                    have hN1 := HI2S.out
                    have hN0 : i + 1 ≤ i2 := by have := HKI2.out; omega
                    clear hr
                    have ca0 : wa.cell? ⟨ab, 0, none⟩ = some (.int .i64 0) := heap_cell HAA.out 0
                    have ca1 : wa.cell? ⟨ab, 1, none⟩ = some (.string NM) := heap_cell HAA.out 1
                    have HKN := Lib.hid (qKnown u8 acc NM (by have := HAL.out; have := HJI.out; have := HIS.out; have := HS.out; omega) wa (attrRow_of HROW.out))
                    obtain ⟨kn, hkn⟩ : ∃ kn, kn = knownL acc NM.data.toList := ⟨_, rfl⟩
                    rw [← hkn] at HKN
                    have HKNE := Lib.hid hkn
                    clear hkn
                    cases kn with
                    | true =>
                      go_wp2_with fail
                      refine HKN.out.mono ?_
                      rintro e wk ⟨rfl, hbk⟩
                      go_wp2_with fail
                      go_roundg (s.size - i2)
                      case measure => have := HGN.out; have := HJI.out; omega
                      case rel =>
                        refine ⟨acc, i2, rfl, rfl, ?_, hN1, ?_, ?_, ownA_below HROW.out hbk, below_next HBW.out hbk⟩
                        · have := HKJ.out; have := HJI.out; omega
                        · have := HAL.out; have := HJI.out; omega
                        · rw [← HRES.out, addL_yes _ HKNE.out.symm]
                    | false =>
                      go_wp2_with fail
                      refine HKN.out.mono ?_
                      rintro e wk ⟨rfl, hbk⟩
                      have hrowk := ownA_below HROW.out hbk
                      have hak := heap_below HAA.out hbk
                      have cb0 : wk.cell? ⟨ab, 0, none⟩ = some (.int .i64 0) := heap_cell hak 0
                      have cb1 : wk.cell? ⟨ab, 1, none⟩ = some (.string NM) := heap_cell hak 1
                      have cb2 : wk.cell? ⟨ab, 2, none⟩ = some (.string (ByteArray.mk #[])) := heap_cell hak 2
                      have hbelk := below_next HBW.out hbk
                      have hszb : w1.heap.size ≤ wk.heap.size := hbelk.size
                      have HROWK := Lib.hid hrowk
                      have HBK := Lib.hid hbelk
                      have hl1 : acc.length + 1 ≤ 1000001 := by have := HAL.out; have := HJI.out; have := HIS.out; have := HS.out; omega
                      obtain ⟨i0, hi0, hz0, hz1, hz2'⟩ := info_parts info_attr
                      clear hrowk hbelk hak hbk ca0 ca1
                      go_wp2_with (at_builtin; refine wpList_append_own _ rfl _ _ 25 rfl w1.heap.size 31 i0 (.agg #[.int .i64 0, .string ⟨#[]⟩, .string ⟨#[]⟩]) 3 40 Tryz.underlying25 hi0 hz0 hz1 hz2' rfl (by decide) _ _ _ rfl (HROWK.out.alloc _) ⟨wk.heap.size, 0, none⟩ 1 1 [.int .i64 0, .string NM, .string (ByteArray.mk #[])] rfl rfl (three_cell _ _ _ _ _) (three_one _ _) (by unfold maxLen; omega) (by omega) (by simp; omega) ?_; intro v' wc hown' hgrow _; have HOWN := Lib.hid hown'; have HGROW := Lib.hid hgrow; clear hown' hgrow)
                      go_roundg (s.size - i2)
                      case measure => have := HGN.out; have := HJI.out; omega
                      case rel =>
                        have hrow2 := HROWK.out.alloc (.cells #[.int .i64 0, .string NM, .string (ByteArray.mk #[])] 31)
                        refine ⟨acc ++ [(NM.data.toList, ((ByteArray.mk #[])).data.toList)], i2, rfl, rfl, ?_, hN1, ?_, ?_, ?_, ?_⟩
                        · have := HKJ.out; have := HJI.out; omega
                        · have := HAL.out; have := HJI.out; rw [List.length_append]; show acc.length + 1 ≤ _; omega
                        · rw [← HRES.out, addL_no _ HKNE.out.symm]
                        · rw [List.length_append, attrCells_snoc, bl_of, bl_of]
                          exact HOWN.out
                        · exact (below_alloc HBK.out _).grown HGROW.out (by simp; omega) (fun k e => (hrow2.lt k e).1)
    · have dE : ((i : Int) == (s.size : Int)) = true := by rw [beq_iff_eq]; have := HIS.out; omega
      have hiz : i = s.size := by have := HIS.out; omega
      have hfin : atL (refL lgL true) (s.data.toList.drop k) = none := by
        rw [HST.out, drop_end s i (by omega)]
      have HF := Lib.hid hfin
      have HIZ := Lib.hid hiz
      clear hfin hiz
      go_wp2_with fail
      refine bodyPost_ret (v := .tuple #[.slice none 0 0, .bool false, .bool false, .int .i64 i]) (by simp [results, Tryz.results142, go_sem]) rfl ⟨_, false, false, i, [], rfl, HBB.out, ?_, HIS.out, World.ownsRow_nil _ _ _ _, Nat.zero_le _, .inr ⟨rfl, rfl, rfl, rfl, HIZ.out, HF.out⟩⟩
      have := HKJ.out; have := HJI.out; omega
end Go.Proofs.YtnfccckodgknjaaGreatDoor

namespace Go.Proofs.YtnfccckodgknjaaGreatDoor
open Go.RowKit Go.Shelf Go.Lib
set_option maxHeartbeats 4000000
set_option maxRecDepth 100000

theorem upTo_ut : ∀ t : List UInt8, t.drop (utL [62] t).2 = upTo62 t
  | [] => by rw [utL_nil _ (by simp)]; rfl
  | b :: t => by
    rw [utL_cons]
    by_cases h : b = 62
    · subst h
      rw [if_pos (by simp [List.isPrefixOf]), upq_62]
      rfl
    · rw [if_neg (by simp [List.isPrefixOf]; exact fun e => h e.symm)]
      have e : upTo62 (b :: t) = upTo62 t := by unfold upTo62; rw [runN_no _ (by simpa using h), List.drop_succ_cons]
      rw [e, ← upTo_ut t]
      simp only [pre]
      rw [Nat.add_comm, List.drop_succ_cons]

theorem ut62_le : ∀ t : List UInt8, (utL [62] t).2 ≤ t.length
  | [] => by rw [utL_nil _ (by simp)]; exact Nat.le_refl _
  | b :: t => by
    rw [utL_cons]
    split
    · simp
    · have := ut62_le t
      simp only [pre, List.length_cons]
      omega

theorem idR_at (s : ByteArray) (k : Nat) (q : UInt8) (Z : Nat) (hZ : Z = k + 1 + idN q (s.data.toList.drop (k + 1))) :
    (s.size ≤ Z → idR q (s.data.toList.drop (k + 1)) = (nulL ((s.data.toList.drop (k + 1)).take (Z - (k + 1))), [], false)) ∧
    ∀ h : Z < s.size, (s[Z]'h = q → idR q (s.data.toList.drop (k + 1)) = (nulL ((s.data.toList.drop (k + 1)).take (Z - (k + 1))), s.data.toList.drop (Z + 1), true)) ∧
      (¬ s[Z]'h = q → idR q (s.data.toList.drop (k + 1)) = (nulL ((s.data.toList.drop (k + 1)).take (Z - (k + 1))), s.data.toList.drop Z, false)) := by
  have e : (s.data.toList.drop (k + 1)).drop (idN q (s.data.toList.drop (k + 1))) = s.data.toList.drop Z := by rw [List.drop_drop, hZ]
  have e2 : Z - (k + 1) = idN q (s.data.toList.drop (k + 1)) := by omega
  rw [e2]
  unfold idR
  rw [e]
  refine ⟨fun h => ?_, fun h => ⟨fun hq => ?_, fun hq => ?_⟩⟩
  · rw [drop_end s Z h]
  · rw [drop_byte s Z h]
    simp only
    rw [if_pos hq]
  · rw [drop_byte s Z h]
    simp only
    rw [if_neg hq]

/-- An identifier, where it ends, and whether its quote stood there. -/
def QId (s : ByteArray) (k : Nat) (q : UInt8) (w : World) (e : Ending) (w' : World) : Prop :=
  ∃ (V : ByteArray) (N : Nat) (b : Bool), e = .returned (.tuple #[.string V, .int .i64 N, .bool b]) ∧ k < N ∧ N ≤ s.size ∧ idR q (s.data.toList.drop (k + 1)) = (V.data.toList, s.data.toList.drop N, b) ∧ w' = w

theorem qIdentifier (s : ByteArray) (k : Nat) (hk : k < s.size) (hs : s.size ≤ 1000000) (w : World) :
    Calls Tryz.prog 74 #[.string s, .int .i64 k] w (QId s k (s[k]'hk) w) := by
  obtain ⟨Z, hZ⟩ : ∃ Z, Z = k + 1 + idN (s[k]'hk) (s.data.toList.drop (k + 1)) := ⟨_, rfl⟩
  obtain ⟨id1, id2⟩ := idR_at s k (s[k]'hk) Z hZ
  have hZ2 : Z = k + 1 + runN (fun b => b == 62 || b == s[k]'hk) (s.data.toList.drop (k + 1)) := hZ
  have hstop := at_stop (fun b => b == 62 || b == s[k]'hk) s (k + 1) (by omega)
  rw [← hZ2] at hstop
  have hZs : Z ≤ s.size := by rcases hstop with h | ⟨h, _⟩ <;> omega
  obtain ⟨V, hV⟩ : ∃ V, V = bl (nulL ((s.data.toList.drop (k + 1)).take (Z - (k + 1)))) := ⟨_, rfl⟩
  have hVl : V.data.toList = nulL ((s.data.toList.drop (k + 1)).take (Z - (k + 1))) := by rw [hV]; rfl
  have hx : (s.extract (k + 1) Z).data.toList = (s.data.toList.drop (k + 1)).take (Z - (k + 1)) := by
    have h := ext_take s (k + 1) (Z - (k + 1)) (by omega)
    rwa [show k + 1 + (Z - (k + 1)) = Z by omega] at h
  have hn := fun W => qNul (s.extract (k + 1) Z) (by rw [ByteArray.size_extract]; omega) W
  rw [hx, ← hV] at hn
  rw [← hVl] at id1 id2
  have HN := Lib.hid hn
  have HI1 := Lib.hid id1
  have HI2 := Lib.hid id2
  have HSTOP := Lib.hid hstop
  have HBS := Lib.hid (fun j h0 h hj => before_stop (fun b => b == 62 || b == s[k]'hk) s (k + 1) j h0 h hj)
  have HZ2 := Lib.hid hZ2
  have hkI : (k : Int) < (s.size : Int) := by omega
  have hz2 : (s.size : Int) ≤ 1000000 := by omega
  have hkZ : (k : Int) + 1 ≤ (Z : Int) := by omega
  have hZI : (Z : Int) ≤ (s.size : Int) := by omega
  clear hZ id1 id2 hZ2 hstop hV hVl hx hn hs
  go_enter Tryz.func74, Tryz.ntmps74
  go_wp2_with fail
  go_loop [8] (fun i => ∃ j : Nat, k + 1 ≤ j ∧ j ≤ Z ∧ i = .int .i64 j) (fun i => Z - (intOf i).toNat)
  case atStart => exact ⟨k + 1, Nat.le_refl _, by omega, by go_num⟩
  case round =>
    obtain ⟨j, hkj, hj, rfl⟩ := hrel
    by_cases hlt : j < Z
    · have hjs : j < s.size := by omega
      have hJ : (j : Int) < (s.size : Int) := by omega
      have hb := HBS.out j hkj (by have := HZ2.out; omega) hjs
      simp only [Bool.or_eq_false_iff, beq_eq_false_iff_ne] at hb
      have d1 : (((s[j]'hjs).toNat : Int) != ((s[k]'hk).toNat : Int)) = true := by
        rw [bne_iff_ne]
        intro h
        exact hb.2 (UInt8.toNat_inj.1 (by omega))
      have d2 : (((s[j]'hjs).toNat : Int) != 62) = true := by
        rw [bne_iff_ne]
        intro h
        exact hb.1 (UInt8.toNat_inj.1 (by show (s[j]'hjs).toNat = 62; omega))
      clear hb
      go_wp2_with fail
      go_round
      case rel => exact ⟨j + 1, by omega, by omega, by go_num⟩
      case measure => simp [intOf]; omega
    · have hjZ : j = Z := by omega
      subst hjZ
      by_cases hjs : j < s.size
      · have hJ : (j : Int) < (s.size : Int) := by omega
        by_cases hq : s[j]'hjs = s[k]'hk
        · have d1 : (((s[j]'hjs).toNat : Int) == ((s[k]'hk).toNat : Int)) = true := by rw [beq_iff_eq, hq]
          have d3 : (((s[j]'hjs).toNat : Int) != ((s[k]'hk).toNat : Int)) = false := by rw [bne_eq_false_iff_eq, hq]
          have HI := Lib.hid ((HI2.out hjs).1 hq)
          clear hq hlt
          go_wp2_with fail
          refine (HN.out _).mono ?_
          rintro e w3 ⟨rfl, rfl⟩
          go_wp2_with fail
          go_ret3
          exact ⟨V, j + 1, true, rfl, by omega, by omega, HI.out, rfl⟩
        · have d1 : (((s[j]'hjs).toNat : Int) == ((s[k]'hk).toNat : Int)) = false := by
            rw [beq_eq_false_iff_ne]
            intro h
            exact hq (UInt8.toNat_inj.1 (by omega))
          have d3 : (((s[j]'hjs).toNat : Int) != ((s[k]'hk).toNat : Int)) = true := by
            rw [bne_iff_ne]
            intro h
            exact hq (UInt8.toNat_inj.1 (by omega))
          have d2 : (((s[j]'hjs).toNat : Int) != 62) = false := by
            rcases HSTOP.out with h | ⟨_, h⟩
            · omega
            · simp only [Bool.or_eq_true, beq_iff_eq] at h
              rcases h with h | h
              · rw [h]; rfl
              · exact absurd h hq
          have HI := Lib.hid ((HI2.out hjs).2 hq)
          clear hq hlt
          go_wp2_with fail
          refine (HN.out _).mono ?_
          rintro e w3 ⟨rfl, rfl⟩
          go_wp2_with fail
          go_ret3
          exact ⟨V, j, false, rfl, by omega, by omega, HI.out, rfl⟩
      · have hJ : ¬ (j : Int) < (s.size : Int) := by omega
        have hi := HI1.out (by omega)
        have hd : ([] : List UInt8) = s.data.toList.drop j := (drop_end s j (by omega)).symm
        have HI := Lib.hid (show idR (s[k]'hk) (s.data.toList.drop (k + 1)) = (V.data.toList, s.data.toList.drop j, false) by rw [← hd]; exact hi)
        clear hi hd hlt
        go_wp2_with fail
        refine (HN.out _).mono ?_
        rintro e w3 ⟨rfl, rfl⟩
        go_wp2_with fail
        go_ret3
        exact ⟨V, j, false, rfl, by omega, by omega, HI.out, rfl⟩

theorem tokAt_two (w : World) (A B : Array Value) : TokAt ((w.alloc (.cells A 38)).alloc (.cells B 38)) (w.heap.size + 1) B := by
  have h := tokAt_new (w.alloc (.cells A 38)) B
  rwa [show (w.alloc (.cells A 38)).heap.size = w.heap.size + 1 from by simp] at h
theorem qQuirky (d : Dt) (w : World) : Calls Tryz.prog 69 #[tokD d] w fun e w' => e = .returned (.agg #[.int .i64 1, .string d.name, .bool d.hn, .string d.pub, .bool d.hp, .string d.sys, .bool d.hs, .bool true, .slice none 0 0, .bool false, .string ⟨#[]⟩, .int .i32 0]) ∧ Below w.heap.size w w' := by
  unfold tokD
  go_enter Tryz.func69, Tryz.ntmps69
  go_wp2_with fail
  have hr : TokAt ((w.alloc (.cells #[.int .i64 1, .string d.name, .bool d.hn, .string d.pub, .bool d.hp, .string d.sys, .bool d.hs, .bool true, .slice none 0 0, .bool false, .string ⟨#[]⟩, .int .i32 0] 38)).alloc (.cells #[.int .i64 1, .string d.name, .bool d.hn, .string d.pub, .bool d.hp, .string d.sys, .bool d.hs, .bool true, .slice none 0 0, .bool false, .string ⟨#[]⟩, .int .i32 0] 38)) (w.heap.size + 1) #[.int .i64 1, .string d.name, .bool d.hn, .string d.pub, .bool d.hp, .string d.sys, .bool d.hs, .bool true, .slice none 0 0, .bool false, .string ⟨#[]⟩, .int .i32 0] := tokAt_two w _ _
  obtain ⟨r0, r1, r2, r3, r4, r5, r6, r7, r8, r9, r10, r11⟩ := hr.cells
  refine bodyPost_ret (v := tokD { d with qk := true }) (by simp [results, Tryz.results69, go_sem, tokD, r0, r1, r2, r3, r4, r5, r6, r7, r8, r9, r10, r11]) rfl ⟨rfl, below_alloc (below_alloc (Below.refl _ _) _) _⟩

def QBog (s : ByteArray) (k : Nat) (d : Dt) (w : World) (e : Ending) (w' : World) : Prop :=
  ∃ N : Nat, e = .returned (.tuple #[.agg #[.int .i64 1, .string d.name, .bool d.hn, .string d.pub, .bool d.hp, .string d.sys, .bool d.hs, .bool d.qk, .slice none 0 0, .bool false, .string ⟨#[]⟩, .int .i32 0], .int .i64 N]) ∧ k ≤ N ∧ N ≤ s.size ∧ s.data.toList.drop N = upTo62 (s.data.toList.drop k) ∧ Below w.heap.size w w'
theorem qBogusDoctype (s : ByteArray) (k : Nat) (hk : k ≤ s.size) (hs : s.size ≤ 1000000) (d : Dt) (w : World) :
    Calls Tryz.prog 72 #[.string s, .int .i64 k, tokD d] w (QBog s k d w) := by
  have HU := Lib.hid (fun W => qUpTo s k ⟨#[62]⟩ (by simp) (by decide) hs W)
  rw [show (ByteArray.mk #[62]).data.toList = [62] from rfl, clip_nat s k hk, tlS_nat s k hk] at HU
  have hlen : k + (utL [62] (s.data.toList.drop k)).2 ≤ s.size := by
    have h3 := ut62_le (s.data.toList.drop k)
    rw [List.length_drop, size_list] at h3
    omega
  have hd : s.data.toList.drop (k + (utL [62] (s.data.toList.drop k)).2) = upTo62 (s.data.toList.drop k) := by rw [← List.drop_drop]; exact upTo_ut _
  obtain ⟨V, hV⟩ : ∃ V, V = bl (utL [62] (s.data.toList.drop k)).1 := ⟨_, rfl⟩
  obtain ⟨N, hN⟩ : ∃ N, N = k + (utL [62] (s.data.toList.drop k)).2 := ⟨_, rfl⟩
  rw [← hV, ← hN] at HU
  rw [← hN] at hlen hd
  have HL := Lib.hid (show k ≤ N by omega)
  have HLN := Lib.hid hlen
  have HD := Lib.hid hd
  clear hV hN hlen hd hs hk
  unfold tokD
  go_enter Tryz.func72, Tryz.ntmps72
  go_wp2_with fail
  refine (HU.out _).mono ?_
  rintro e w2 ⟨rfl, rfl⟩
  go_wp2_with fail
  have hr : TokAt ((w.alloc (.cells #[.int .i64 1, .string d.name, .bool d.hn, .string d.pub, .bool d.hp, .string d.sys, .bool d.hs, .bool d.qk, .slice none 0 0, .bool false, .string ⟨#[]⟩, .int .i32 0] 38)).alloc (.cells #[.int .i64 1, .string d.name, .bool d.hn, .string d.pub, .bool d.hp, .string d.sys, .bool d.hs, .bool d.qk, .slice none 0 0, .bool false, .string ⟨#[]⟩, .int .i32 0] 38)) (w.heap.size + 1) #[.int .i64 1, .string d.name, .bool d.hn, .string d.pub, .bool d.hp, .string d.sys, .bool d.hs, .bool d.qk, .slice none 0 0, .bool false, .string ⟨#[]⟩, .int .i32 0] := tokAt_two w _ _
  obtain ⟨r0, r1, r2, r3, r4, r5, r6, r7, r8, r9, r10, r11⟩ := hr.cells
  refine bodyPost_ret (v := .tuple #[tokD d, .int .i64 N]) (by simp [results, Tryz.results72, go_sem, tokD, r0, r1, r2, r3, r4, r5, r6, r7, r8, r9, r10, r11]) rfl ⟨N, rfl, HL.out, HLN.out, HD.out, below_alloc (below_alloc (Below.refl _ _) _) _⟩
end Go.Proofs.YtnfccckodgknjaaGreatDoor
