/-
  The document's reader of document type declarations.
-/
import Derived.Test.YtnfccckodgknjaaGreatDoorYM
namespace Go.Proofs.YtnfccckodgknjaaGreatDoor
open Go.RowKit Go.Shelf Go.Lib
set_option maxHeartbeats 0
set_option maxRecDepth 100000


theorem qDoctypeB (s : ByteArray) (a : Int) (hs : s.size ≤ 100000) (hsel : lowL ((rest2 (tlS s a)).take 6) = sPublic) (w : World) :
    Calls Tryz.prog 21 #[.string s, .int .i64 a] w (QDoc s (clip s a) w) := by
  have HC := Lib.hid (fun W => qClip s a W)
  have hk := clip_le s a
  unfold tlS at hsel
  generalize clip s a = k at HC hk hsel ⊢
  have HSEL := Lib.hid hsel
  clear hsel
  have HSPB := Lib.hid (fun (b : UInt8) W => rSpace (b.toNat : Int) W)
  have HQU := Lib.hid (fun b W => qQuote b W)
  have HQ := Lib.hid (fun d W => qQuirky d W)
  have HB := Lib.hid (fun (j : Nat) (hj : j ≤ s.size) d W => qBogusDoctype s j hj (by omega) d W)
  have HID := Lib.hid (fun (j : Nat) (hj : j < s.size) W => qIdentifier s j hj (by omega) W)
  have hz2 : (s.size : Int) ≤ 100000 := by omega
  obtain ⟨i1, hk1, hi1, hsk1, hS1⟩ := qSpacesAt s k hk (by omega)
  have HS1 := Lib.hid hS1
  have HDL := Lib.hid (docL_R (s.data.toList.drop k))
  have HSK1 := Lib.hid hsk1
  clear hS1 hsk1
  obtain ⟨W0, hW0⟩ : ∃ W, (w.alloc (.cells #[.int .i64 0, .string ⟨#[]⟩, .bool false, .string ⟨#[]⟩, .bool false, .string ⟨#[]⟩, .bool false, .bool false, .slice none 0 0, .bool false, .string ⟨#[]⟩, .int .i32 0] 38)).alloc (.cells #[.int .i64 1, .string ⟨#[]⟩, .bool false, .string ⟨#[]⟩, .bool false, .string ⟨#[]⟩, .bool false, .bool false, .slice none 0 0, .bool false, .string ⟨#[]⟩, .int .i32 0] 38) = W := ⟨_, rfl⟩
  have hT0 : TD W0 (w.heap.size + 1) d00 := by rw [← hW0]; exact tokAt_two w _ _
  have hR0 : TokAt W0 w.heap.size tok0 := by rw [← hW0]; exact (tokAt_new w _).below (below_alloc (Below.refl _ _) _)
  have hBW0 : Below w.heap.size w W0 := by rw [← hW0]; exact below_alloc (below_alloc (Below.refl _ _) _) _
  obtain ⟨r, hr0⟩ : ∃ r, r = w.heap.size := ⟨_, rfl⟩
  obtain ⟨g, hg0⟩ : ∃ g, g = w.heap.size + 1 := ⟨_, rfl⟩
  rw [← hg0] at hT0
  rw [← hr0] at hR0
  have HT := Lib.hid hT0
  have HR := Lib.hid hR0
  have HBW := Lib.hid hBW0
  have HG0 := Lib.hid (show w.heap.size ≤ g by omega)
  have HR0 := Lib.hid (show w.heap.size ≤ r by omega)
  have HGR := Lib.hid (show r ≠ g by omega)
  have HW0 := Lib.hid hW0
  have HGE := Lib.hid hg0
  have HRE := Lib.hid hr0
  clear hT0 hR0 hBW0 hW0 hg0 hr0
  go_enter Tryz.func21, Tryz.ntmps21
  go_wp2_with (refine wpList_load_row (by rfl) 38 _ rfl g rfl 38 _ (0, 0) _ HT.out Tryz.underlying38 rfl (by kernel_rfl) ?_)
  rw [HW0.out, ← HGE.out, ← HRE.out]
  clear HW0 HGE HRE
  refine (HC.out _).mono ?_
  rintro e wz ⟨rfl, rfl⟩
  by_cases he1 : i1 < s.size
  · have dE1 : ((i1 : Int) == (s.size : Int)) = false := by rw [beq_eq_false_iff_ne]; omega
    have hJ1 : (i1 : Int) < (s.size : Int) := by omega
    have hb1 := drop_byte s i1 he1
    by_cases h62 : s[i1]'he1 = 62
    · exact absurd HSEL.out (noPub_62 (rest2_62 (HSK1.out.trans hb1) h62) h62)
    · have d62 : (((s[i1]'he1).toNat : Int) == 62) = false := by
        rw [beq_eq_false_iff_ne]
        intro h
        exact h62 (UInt8.toNat_inj.1 (by show (s[i1]'he1).toNat = 62; omega))
      obtain ⟨kk, hkk⟩ : ∃ kk, kk = i1 + runN ewU (s.data.toList.drop i1) := ⟨_, rfl⟩
      have hrun := runN_in ewU s i1
      have hkks : kk ≤ s.size := by omega
      obtain ⟨i2, hk2, hi2, hsk2, hS2⟩ := qSpacesAt s kk hkks (by omega)
      have hx : (s.extract i1 kk).data.toList = (s.data.toList.drop i1).take (runN ewU (s.data.toList.drop i1)) := by
        rw [hkk]
        exact ext_take s i1 _ (by omega)
      obtain ⟨X, hX⟩ : ∃ X, s.extract i1 kk = X := ⟨_, rfl⟩
      rw [hX] at hx
      have hXs : X.size ≤ 100000 := by rw [← hX, ByteArray.size_extract]; omega
      have HLO := Lib.hid (fun W => rLower X (by omega) W)
      have hnu := fun W => qNul (lowS X) (by rw [lowS_size]; omega) W
      obtain ⟨V, hV⟩ : ∃ V, V = bl (nulL (lowL ((s.data.toList.drop i1).take (runN ewU (s.data.toList.drop i1))))) := ⟨_, rfl⟩
      rw [lowS_eq, hx, show (bl (lowL ((s.data.toList.drop i1).take (runN ewU (s.data.toList.drop i1))))).data.toList = lowL ((s.data.toList.drop i1).take (runN ewU (s.data.toList.drop i1))) from rfl, ← hV] at hnu
      rw [lowS_eq, hx] at HLO
      obtain ⟨Y, hY⟩ : ∃ Y, Y = bl (lowL ((s.data.toList.drop i1).take (runN ewU (s.data.toList.drop i1)))) := ⟨_, rfl⟩
      rw [← hY] at HLO hnu
      have HNU := Lib.hid hnu
      obtain ⟨d1, hd1⟩ : ∃ d1, d1 = { d00 with name := V, hn := true } := ⟨_, rfl⟩
      have hg : docL (s.data.toList.drop k) = afterR (dT d1) (s.data.toList.drop i2) := by
        rw [HDL.out]
        unfold docR
        rw [HSK1.out, hb1]
        simp only
        rw [if_neg h62, ← hb1, List.drop_drop, ← hkk, hsk2, hd1, hV]
        rfl
      have HG := Lib.hid hg
      have HS2 := Lib.hid hS2
      have HBS := Lib.hid (fun j h0 h hj => before_stop ewU s i1 j h0 h hj)
      have HAS := Lib.hid (at_stop ewU s i1 hi1)
      rw [← hkk] at HAS HBS
      have HDD := Lib.hid hd1
      have HSK2 := Lib.hid hsk2
      have HR2 : Hid (rest2 (s.data.toList.drop k) = s.data.toList.drop i2) := Lib.hid (by unfold rest2; rw [HSK1.out, List.drop_drop, ← hkk, hsk2])
      have hkI : (i1 : Int) ≤ (kk : Int) := by omega
      have hkI2 : (kk : Int) ≤ (s.size : Int) := by omega
      have hi1kk : i1 ≤ kk := by omega
      clear hb1 h62 hkk hrun hsk2 hS2 hx hXs hnu hV hY hd1 hg
      go_wp2_with (refine wpList_load_row (by rfl) 38 _ rfl g rfl 38 _ (0, 0) _ HT.out Tryz.underlying38 rfl (by kernel_rfl) ?_)
      refine (HS1.out _).mono ?_
      rintro e wz ⟨rfl, rfl⟩
      go_wp2_with (refine wpList_load_row (by rfl) 38 _ rfl g rfl 38 _ (0, 0) _ HT.out Tryz.underlying38 rfl (by kernel_rfl) ?_)
      go_loop [8] (fun i => ∃ j : Nat, i1 ≤ j ∧ j ≤ kk ∧ i = .int .i64 j) (fun i => kk - (intOf i).toNat)
      case atStart => exact ⟨i1, Nat.le_refl _, hi1kk, rfl⟩
      case round =>
        obtain ⟨j, hj1, hj2, rfl⟩ := hrel
        by_cases hlt : j < kk
        · have hjs : j < s.size := by omega
          have hJ : (j : Int) < (s.size : Int) := by omega
          have hb := HBS.out j hj1 hlt hjs
          unfold ewU at hb
          simp only [Bool.or_eq_false_iff, beq_eq_false_iff_ne] at hb
          have dj : (((s[j]'hjs).toNat : Int) != 62) = true := by
            rw [bne_iff_ne]
            intro h
            exact hb.2 (UInt8.toNat_inj.1 (by show (s[j]'hjs).toNat = 62; omega))
          have HSJ := Lib.hid (fun W => HSPB.out (s[j]'hjs) W)
          have hy2 : spB ((s[j]'hjs).toNat : Int) = false := hb.1
          rw [hy2] at HSJ
          clear hb hy2
          go_wp2_with (refine wpList_load_row (by rfl) 38 _ rfl g rfl 38 _ (0, 0) _ HT.out Tryz.underlying38 rfl (by kernel_rfl) ?_)
          refine (HSJ.out _).mono ?_
          rintro e wz ⟨rfl, rfl⟩
          go_wp2_with (refine wpList_load_row (by rfl) 38 _ rfl g rfl 38 _ (0, 0) _ HT.out Tryz.underlying38 rfl (by kernel_rfl) ?_)
          go_round
          case rel => exact ⟨j + 1, by omega, by omega, by go_num⟩
          case measure => simp [intOf]; omega
        · have hjk : j = kk := by omega
          subst hjk
          clear hlt hj2
          rcases HAS.out with hz | ⟨hjs, hst⟩
          · have hJ : ¬ (j : Int) < (s.size : Int) := by omega
            clear hz
            go_wp2_with (refine wpList_load_row (by rfl) 38 _ rfl g rfl 38 _ (0, 0) _ HT.out Tryz.underlying38 rfl (by kernel_rfl) ?_)
            exact absurd HSEL.out (noPub_nil (HR2.out.trans (drop_end s i2 (by omega))))
          · have hJ : (j : Int) < (s.size : Int) := by omega
            have HSJ := Lib.hid (fun W => HSPB.out (s[j]'hjs) W)
            by_cases hsp : spU (s[j]'hjs) = true
            · have hy2 : spB ((s[j]'hjs).toNat : Int) = true := hsp
              rw [hy2] at HSJ
              clear hsp hy2 hst
              go_wp2_with (refine wpList_load_row (by rfl) 38 _ rfl g rfl 38 _ (0, 0) _ HT.out Tryz.underlying38 rfl (by kernel_rfl) ?_)
              refine (HSJ.out _).mono ?_
              rintro e wz ⟨rfl, rfl⟩
              go_wp2_with (refine wpList_load_row (by rfl) 38 _ rfl g rfl 38 _ (0, 0) _ HT.out Tryz.underlying38 rfl (by kernel_rfl) ?_)
              refine (HLO.out _).mono ?_
              rintro e wl ⟨rfl, hbl⟩
              have hT2 := HT.out.below hbl
              have hB2 := below_next HBW.out hbl
              have hTN := hT2.setName V
              rw [← HDD.out] at hTN
              have hBN := below_two (i := 1) (j := 2) (u := .string V) (v := .bool true) hB2 HG0.out
              have hRN := tokAt_two_set (HR.out.below hbl) HGR.out (i := 1) (j := 2) (u := .string V) (v := .bool true)
              have HT := Lib.hid hT2
              clear hT2 hB2 hbl
              have u1 := (TD.cells HT.out).2.1
              have u2 := (TD.cells HT.out).2.2.1
              have f1 := TD.fr HT.out 1
              have f2 := TD.fr HT.out 2
              go_wp2_with (refine wpList_load_row (by rfl) 38 _ rfl g rfl 38 _ (0, 0) _ HT.out Tryz.underlying38 rfl (by kernel_rfl) ?_)
              refine (HNU.out _).mono ?_
              rintro e wz ⟨rfl, rfl⟩
              go_wp2_with (refine wpList_load_row (by rfl) 38 _ rfl g rfl 38 _ (0, 0) _ HT.out Tryz.underlying38 rfl (by kernel_rfl) ?_)
              generalize hWN : World.setCell _ _ _ = WN
              rw [hWN] at hTN hBN hRN
              clear hWN u1 u2 f1 f2
              have HT := Lib.hid hTN
              have HBW := Lib.hid hBN
              have HR := Lib.hid hRN
              clear hTN hBN hRN
              refine (HS2.out _).mono ?_
              rintro e wz ⟨rfl, rfl⟩
              by_cases he2 : i2 < s.size
              · have dE2 : ((i2 : Int) == (s.size : Int)) = false := by rw [beq_eq_false_iff_ne]; omega
                have hJ2 : (i2 : Int) < (s.size : Int) := by omega
                have hb2 := drop_byte s i2 he2
                by_cases h62 : s[i2]'he2 = 62
                · exact absurd HSEL.out (noPub_62 (HR2.out.trans hb2) h62)
                · have e62 : (((s[i2]'he2).toNat : Int) == 62) = false := by
                    rw [beq_eq_false_iff_ne]
                    intro h
                    exact h62 (UInt8.toNat_inj.1 (by show (s[i2]'he2).toNat = 62; omega))
                  have hg : docL (s.data.toList.drop k) = wordR (dT d1) (s.data.toList.drop i2) := by
                    rw [HG.out, hb2]
                    unfold afterR
                    simp only
                    rw [if_neg h62]
                  have HG := Lib.hid hg
                  obtain ⟨m6, hm6⟩ : ∃ m6, m6 = min (i2 + 6) s.size := ⟨_, rfl⟩
                  have hx : (s.extract i2 m6).data.toList = (s.data.toList.drop i2).take 6 := by
                    have h := ext_take s i2 (m6 - i2) (by omega)
                    rw [show i2 + (m6 - i2) = m6 by omega] at h
                    rw [h]
                    by_cases hh : i2 + 6 ≤ s.size
                    · rw [show m6 - i2 = 6 by omega]
                    · rw [List.take_of_length_le (by rw [List.length_drop, size_list]; omega), List.take_of_length_le (by rw [List.length_drop, size_list]; omega)]
                  have hm6I : (m6 : Int) = min ((i2 : Int) + 6) (s.size : Int) := by omega
                  obtain ⟨X6, hX6⟩ : ∃ X, s.extract i2 m6 = X := ⟨_, rfl⟩
                  have hX6s : X6.size ≤ 100000 := by rw [← hX6, ByteArray.size_extract]; omega
                  have HLO6 := Lib.hid (fun W => rLower X6 (by omega) W)
                  rw [hX6] at hx
                  rw [lowS_eq, hx] at HLO6
                  obtain ⟨W6, hW6⟩ : ∃ W6, W6 = bl (lowL ((s.data.toList.drop i2).take 6)) := ⟨_, rfl⟩
                  rw [← hW6] at HLO6
                  have hW6l : W6.data.toList = lowL ((s.data.toList.drop i2).take 6) := by rw [hW6]; rfl
                  have hX7 : s.extract i2 (min ((i2 : Int) + 6) (s.size : Int)).toNat = X6 := by
                    rw [show (min ((i2 : Int) + 6) (s.size : Int)).toNat = m6 by omega]
                    exact hX6
                  clear hm6I hX6 hm6
                  clear hg hb2 h62 hx hX6s hW6
                  by_cases hp : lowL ((s.data.toList.drop i2).take 6) = sPublic
                  · have tp : (W6.toList == [112, 117, 98, 108, 105, 99]) = true := by rw [ByteArray.toList_eq, hW6l, hp]; rfl
                    have tp2 : (W6.toList != [112, 117, 98, 108, 105, 99]) = false := by rw [bne, tp]; rfl
                    have hl6 : i2 + 6 ≤ s.size := by
                      have h := congrArg List.length hp
                      simp only [lowL, List.length_map, List.length_take, List.length_drop, size_list, sPublic, List.length_cons, List.length_nil] at h
                      omega
                    have hl6I : (i2 : Int) + 6 ≤ (s.size : Int) := by omega
                    obtain ⟨i3, h31, h32, hsk3, hS3⟩ := qSpacesAt s (i2 + 6) hl6 (by omega)
                    have hg : docL (s.data.toList.drop k) = pubR (dT d1) (s.data.toList.drop i3) := by
                      rw [HG.out]
                      unfold wordR
                      rw [if_pos hp, List.drop_drop, hsk3]
                    have HG := Lib.hid hg
                    have HS3 := Lib.hid (show ∀ W, Calls Tryz.prog 67 #[.string s, .int .i64 ((i2 : Int) + 6)] W fun e w' => e = .returned (.int .i64 (i3 : Nat)) ∧ w' = W from fun W => by have h := hS3 W; rwa [show ((i2 + 6 : Nat) : Int) = (i2 : Int) + 6 by omega] at h)
                    clear hg hsk3 hS3 hp hW6l
                    go_wp2_with (refine wpList_load_row (by rfl) 38 _ rfl g rfl 38 _ (0, 0) _ HT.out Tryz.underlying38 rfl (by kernel_rfl) ?_)
                    refine (HLO6.out _).mono ?_
                    rintro e wl ⟨rfl, hbl⟩
                    have hT2 := HT.out.below hbl
                    have hB2 := below_next HBW.out hbl
                    have hR2 := HR.out.below hbl
                    clear hbl
                    have HT := Lib.hid hT2
                    have HBW := Lib.hid hB2
                    have HR := Lib.hid hR2
                    clear hT2 hB2 hR2
                    go_wp2_with (refine wpList_load_row (by rfl) 38 _ rfl g rfl 38 _ (0, 0) _ HT.out Tryz.underlying38 rfl (by kernel_rfl) ?_)
                    refine (HS3.out _).mono ?_
                    rintro e wz ⟨rfl, rfl⟩
                    clear HS3 HLO6 hX7
                    by_cases hei3 : i3 < s.size
                    · skip
                      have dEi3 : ((i3 : Int) == (s.size : Int)) = false := by rw [beq_eq_false_iff_ne]; omega
                      have hbi3 := drop_byte s i3 hei3
                      have hg := HG.out
                      rw [hbi3] at hg
                      have HG2 := Lib.hid hg
                      have HBY := Lib.hid hbi3
                      have HQS := Lib.hid (fun W => HQU.out (s[i3]'hei3) W)
                      have HIS := Lib.hid (fun W => HID.out i3 hei3 W)
                      clear hg hbi3
                      have hJi3 : (i3 : Int) < (s.size : Int) := by omega
                      cases hqi3 : quU (s[i3]'hei3) with
                      | false =>
                        rw [hqi3] at HQS
                        have HQE := Lib.hid hqi3
                        clear hqi3
                        go_wp2_with (refine wpList_load_row (by rfl) 38 _ rfl g rfl 38 _ (0, 0) _ HT.out Tryz.underlying38 rfl (by kernel_rfl) ?_)
                        refine (HQS.out _).mono ?_
                        rintro e wz ⟨rfl, rfl⟩
                        go_wp2_with (refine wpList_load_row (by rfl) 38 _ rfl g rfl 38 _ (0, 0) _ HT.out Tryz.underlying38 rfl (by kernel_rfl) ?_)
                        refine (HQ.out d1 _).mono ?_
                        rintro e wq ⟨rfl, hq⟩
                        go_wp2_with (refine wpList_load_row (by rfl) 38 _ rfl g rfl 38 _ (0, 0) _ HT.out Tryz.underlying38 rfl (by kernel_rfl) ?_)
                        refine (HB.out i3 (by omega) { d1 with qk := true } wq).mono ?_
                        rintro e wb ⟨N, rfl, hN1, hN2, hN3, hqb⟩
                        have HN3 := Lib.hid hN3
                        have hR := (HR.out.below hq).below hqb
                        clear hN3
                        have HRR := Lib.hid (TokAt.heap hR)
                        clear hR
                        go_wp2_with (first | (refine wpList_load_row (by rfl) 38 _ rfl g rfl 38 _ (0, 0) _ HT.out Tryz.underlying38 rfl (by kernel_rfl) ?_) | (refine wpList_store_tok (by rfl) 38 _ _ rfl r #[.int .i64 1, .string d1.name, .bool d1.hn, .string d1.pub, .bool d1.hp, .string d1.sys, .bool d1.hs, .bool true, .slice none 0 0, .bool false, .string ⟨#[]⟩, .int .i32 0] rfl rfl 38 _ HRR.out (by kernel_rfl) rfl (oc12 _ _ _ _ _ _ _ _ _ _ _ _ _ _) ?_; intro w6 h6 b6; have H6 := Lib.hid h6; have B6 := Lib.hid b6; clear h6 b6))
                        have hb7 := below_but (below_next (below_next HBW.out hq) hqb) B6.out HR0.out
                        obtain ⟨r0, r1, r2, r3, r4, r5, r6, r7, r8, r9, r10, r11⟩ := TokAt.cells (show TokAt w6 r #[.int .i64 1, .string d1.name, .bool d1.hn, .string d1.pub, .bool d1.hp, .string d1.sys, .bool d1.hs, .bool true, .slice none 0 0, .bool false, .string ⟨#[]⟩, .int .i32 0] from H6.out)
                        refine bodyPost_ret (v := .tuple #[tokD { d1 with qk := true }, .int .i64 ((N : Nat) : Int)]) (by simp [results, Tryz.results21, go_sem, tokD, r0, r1, r2, r3, r4, r5, r6, r7, r8, r9, r10, r11]) rfl ⟨{ d1 with qk := true }, N, rfl, by omega, by omega, (by rw [HN3.out]; exact (by rw [HBY.out, HG2.out, pubR_no HQE.out] <;> rfl)), hb7⟩
                      | true =>
                        rw [hqi3] at HQS
                        have HQE := Lib.hid hqi3
                        clear hqi3
                        go_wp2_with (refine wpList_load_row (by rfl) 38 _ rfl g rfl 38 _ (0, 0) _ HT.out Tryz.underlying38 rfl (by kernel_rfl) ?_)
                        refine (HQS.out _).mono ?_
                        rintro e wz ⟨rfl, rfl⟩
                        go_wp2_with (refine wpList_load_row (by rfl) 38 _ rfl g rfl 38 _ (0, 0) _ HT.out Tryz.underlying38 rfl (by kernel_rfl) ?_)
                        refine (HIS.out _).mono ?_
                        rintro e wz ⟨V, M, b, rfl, hM1, hM2, hidr, rfl⟩
                        have HIDR := Lib.hid hidr
                        have hMI : (M : Int) ≤ (s.size : Int) := by omega
                        obtain ⟨i9, h91, h92, hsk9, hS9⟩ := qSpacesAt s M hM2 (by omega)
                        have HS9 := Lib.hid hS9
                        have HSK9 := Lib.hid hsk9
                        clear hidr hS9 hsk9
                        obtain ⟨d2, hdS⟩ : ∃ dS, dS = { d1 with pub := V, hp := true } := ⟨_, rfl⟩
                        have HDd2 := Lib.hid hdS
                        have hTS := HT.out.setPub V
                        rw [← hdS] at hTS
                        have hBS := below_two (i := 3) (j := 4) (u := .string V) (v := .bool true) HBW.out HG0.out
                        have hRS := tokAt_two_set HR.out HGR.out (i := 3) (j := 4) (u := .string V) (v := .bool true)
                        clear hdS
                        cases b with
                        | false =>
                          have u3 := (TD.cells HT.out).2.2.2.1
                          have u4 := (TD.cells HT.out).2.2.2.2.1
                          have f3 := TD.fr HT.out 3
                          have f4 := TD.fr HT.out 4
                          have HTS := Lib.hid hTS
                          go_wp2_with (refine wpList_load_row (by rfl) 38 _ rfl g rfl 38 _ (0, 0) _ HTS.out Tryz.underlying38 rfl (by kernel_rfl) ?_)
                          generalize hWS : World.setCell _ _ _ = WS
                          rw [hWS] at hTS hBS hRS
                          clear hWS u3 u4 f3 f4
                          have HT := Lib.hid hTS
                          have HBW := Lib.hid hBS
                          have HR := Lib.hid hRS
                          clear hTS hBS hRS
                          refine (HQ.out d2 _).mono ?_
                          rintro e wq ⟨rfl, hq⟩
                          go_wp2_with (refine wpList_load_row (by rfl) 38 _ rfl g rfl 38 _ (0, 0) _ HT.out Tryz.underlying38 rfl (by kernel_rfl) ?_)
                          refine (HB.out M (by omega) { d2 with qk := true } wq).mono ?_
                          rintro e wb ⟨N, rfl, hN1, hN2, hN3, hqb⟩
                          have HN3 := Lib.hid hN3
                          have hR := (HR.out.below hq).below hqb
                          clear hN3
                          have HRR := Lib.hid (TokAt.heap hR)
                          clear hR
                          go_wp2_with (first | (refine wpList_load_row (by rfl) 38 _ rfl g rfl 38 _ (0, 0) _ HT.out Tryz.underlying38 rfl (by kernel_rfl) ?_) | (refine wpList_store_tok (by rfl) 38 _ _ rfl r #[.int .i64 1, .string d2.name, .bool d2.hn, .string d2.pub, .bool d2.hp, .string d2.sys, .bool d2.hs, .bool true, .slice none 0 0, .bool false, .string ⟨#[]⟩, .int .i32 0] rfl rfl 38 _ HRR.out (by kernel_rfl) rfl (oc12 _ _ _ _ _ _ _ _ _ _ _ _ _ _) ?_; intro w6 h6 b6; have H6 := Lib.hid h6; have B6 := Lib.hid b6; clear h6 b6))
                          have hb7 := below_but (below_next (below_next HBW.out hq) hqb) B6.out HR0.out
                          obtain ⟨r0, r1, r2, r3, r4, r5, r6, r7, r8, r9, r10, r11⟩ := TokAt.cells (show TokAt w6 r #[.int .i64 1, .string d2.name, .bool d2.hn, .string d2.pub, .bool d2.hp, .string d2.sys, .bool d2.hs, .bool true, .slice none 0 0, .bool false, .string ⟨#[]⟩, .int .i32 0] from H6.out)
                          refine bodyPost_ret (v := .tuple #[tokD { d2 with qk := true }, .int .i64 ((N : Nat) : Int)]) (by simp [results, Tryz.results21, go_sem, tokD, r0, r1, r2, r3, r4, r5, r6, r7, r8, r9, r10, r11]) rfl ⟨{ d2 with qk := true }, N, rfl, by omega, by omega, (by rw [HN3.out]; exact (by rw [HG2.out, pubR_f HQE.out HIDR.out, HDd2.out] <;> rfl)), hb7⟩
                        | true =>
                          have u3 := (TD.cells HT.out).2.2.2.1
                          have u4 := (TD.cells HT.out).2.2.2.2.1
                          have f3 := TD.fr HT.out 3
                          have f4 := TD.fr HT.out 4
                          have HTS := Lib.hid hTS
                          go_wp2_with (refine wpList_load_row (by rfl) 38 _ rfl g rfl 38 _ (0, 0) _ HTS.out Tryz.underlying38 rfl (by kernel_rfl) ?_)
                          generalize hWS : World.setCell _ _ _ = WS
                          rw [hWS] at hTS hBS hRS
                          clear hWS u3 u4 f3 f4
                          have HT := Lib.hid hTS
                          have HBW := Lib.hid hBS
                          have HR := Lib.hid hRS
                          clear hTS hBS hRS
                          refine (HS9.out _).mono ?_
                          rintro e wz ⟨rfl, rfl⟩
                          obtain ⟨i4, hi4⟩ : ∃ i4, i4 = i9 := ⟨_, rfl⟩
                          rw [← hi4] at h91 h92 HSK9 ⊢
                          clear HS9 hi4
                          by_cases hei4 : i4 < s.size
                          · have hb9 := drop_byte s i4 hei4
                            have hJ4 : (i4 : Int) < (s.size : Int) := by omega
                            by_cases h62 : s[i4]'hei4 = 62
                            · have e62 : (((s[i4]'hei4).toNat : Int) == 62) = true := by rw [h62]; rfl
                              have hfin : docL (s.data.toList.drop k) = (dT d2, s.data.toList.drop (i4 + 1)) := by
                                rw [HG2.out, pubR_g HQE.out HIDR.out (HSK9.out.trans hb9) h62, HDd2.out] <;> rfl
                              have HF := Lib.hid hfin
                              clear hfin hb9 h62
                              have hR := HR.out
                              have HRR := Lib.hid (TokAt.heap hR)
                              clear hR
                              go_wp2_with (first | (refine wpList_load_row (by rfl) 38 _ rfl g rfl 38 _ (0, 0) _ HT.out Tryz.underlying38 rfl (by kernel_rfl) ?_) | (refine wpList_store_tok (by rfl) 38 _ _ rfl r #[.int .i64 1, .string d2.name, .bool d2.hn, .string d2.pub, .bool d2.hp, .string d2.sys, .bool d2.hs, .bool d2.qk, .slice none 0 0, .bool false, .string ⟨#[]⟩, .int .i32 0] rfl rfl 38 _ HRR.out (by kernel_rfl) rfl (oc12 _ _ _ _ _ _ _ _ _ _ _ _ _ _) ?_; intro w6 h6 b6; have H6 := Lib.hid h6; have B6 := Lib.hid b6; clear h6 b6))
                              have hb7 := below_but HBW.out B6.out HR0.out
                              obtain ⟨r0, r1, r2, r3, r4, r5, r6, r7, r8, r9, r10, r11⟩ := TokAt.cells (show TokAt w6 r #[.int .i64 1, .string d2.name, .bool d2.hn, .string d2.pub, .bool d2.hp, .string d2.sys, .bool d2.hs, .bool d2.qk, .slice none 0 0, .bool false, .string ⟨#[]⟩, .int .i32 0] from H6.out)
                              refine bodyPost_ret (v := .tuple #[tokD d2, .int .i64 (((i4 + 1) : Nat) : Int)]) (by simp [results, Tryz.results21, go_sem, tokD, r0, r1, r2, r3, r4, r5, r6, r7, r8, r9, r10, r11]) rfl ⟨d2, (i4 + 1), rfl, by omega, by omega, HF.out, hb7⟩
                            · have e62 : (((s[i4]'hei4).toNat : Int) == 62) = false := by
                                rw [beq_eq_false_iff_ne]
                                intro h
                                exact h62 (UInt8.toNat_inj.1 (by show (s[i4]'hei4).toNat = 62; omega))
                              have hg : docL (s.data.toList.drop k) = sysR (dT d2) (s.data.toList.drop i4) := by
                                rw [HG2.out, pubR_s HQE.out HIDR.out (HSK9.out.trans hb9) h62, HDd2.out, hb9] <;> rfl
                              have HG := Lib.hid hg
                              clear hg hb9 h62 HG2 HBY HQS HIS HQE HIDR HSK9 HDd2
                              have dEi4 : ((i4 : Int) == (s.size : Int)) = false := by rw [beq_eq_false_iff_ne]; omega
                              have hbi4 := drop_byte s i4 hei4
                              have hg := HG.out
                              rw [hbi4] at hg
                              have HG2 := Lib.hid hg
                              have HBY := Lib.hid hbi4
                              have HQS := Lib.hid (fun W => HQU.out (s[i4]'hei4) W)
                              have HIS := Lib.hid (fun W => HID.out i4 hei4 W)
                              clear hg hbi4
                              have hJi4 : (i4 : Int) < (s.size : Int) := by omega
                              cases hqi4 : quU (s[i4]'hei4) with
                              | false =>
                                rw [hqi4] at HQS
                                have HQE := Lib.hid hqi4
                                clear hqi4
                                go_wp2_with (refine wpList_load_row (by rfl) 38 _ rfl g rfl 38 _ (0, 0) _ HT.out Tryz.underlying38 rfl (by kernel_rfl) ?_)
                                refine (HQS.out _).mono ?_
                                rintro e wz ⟨rfl, rfl⟩
                                go_wp2_with (refine wpList_load_row (by rfl) 38 _ rfl g rfl 38 _ (0, 0) _ HT.out Tryz.underlying38 rfl (by kernel_rfl) ?_)
                                refine (HQ.out d2 _).mono ?_
                                rintro e wq ⟨rfl, hq⟩
                                go_wp2_with (refine wpList_load_row (by rfl) 38 _ rfl g rfl 38 _ (0, 0) _ HT.out Tryz.underlying38 rfl (by kernel_rfl) ?_)
                                refine (HB.out i4 (by omega) { d2 with qk := true } wq).mono ?_
                                rintro e wb ⟨N, rfl, hN1, hN2, hN3, hqb⟩
                                have HN3 := Lib.hid hN3
                                have hR := (HR.out.below hq).below hqb
                                clear hN3
                                have HRR := Lib.hid (TokAt.heap hR)
                                clear hR
                                go_wp2_with (first | (refine wpList_load_row (by rfl) 38 _ rfl g rfl 38 _ (0, 0) _ HT.out Tryz.underlying38 rfl (by kernel_rfl) ?_) | (refine wpList_store_tok (by rfl) 38 _ _ rfl r #[.int .i64 1, .string d2.name, .bool d2.hn, .string d2.pub, .bool d2.hp, .string d2.sys, .bool d2.hs, .bool true, .slice none 0 0, .bool false, .string ⟨#[]⟩, .int .i32 0] rfl rfl 38 _ HRR.out (by kernel_rfl) rfl (oc12 _ _ _ _ _ _ _ _ _ _ _ _ _ _) ?_; intro w6 h6 b6; have H6 := Lib.hid h6; have B6 := Lib.hid b6; clear h6 b6))
                                have hb7 := below_but (below_next (below_next HBW.out hq) hqb) B6.out HR0.out
                                obtain ⟨r0, r1, r2, r3, r4, r5, r6, r7, r8, r9, r10, r11⟩ := TokAt.cells (show TokAt w6 r #[.int .i64 1, .string d2.name, .bool d2.hn, .string d2.pub, .bool d2.hp, .string d2.sys, .bool d2.hs, .bool true, .slice none 0 0, .bool false, .string ⟨#[]⟩, .int .i32 0] from H6.out)
                                refine bodyPost_ret (v := .tuple #[tokD { d2 with qk := true }, .int .i64 ((N : Nat) : Int)]) (by simp [results, Tryz.results21, go_sem, tokD, r0, r1, r2, r3, r4, r5, r6, r7, r8, r9, r10, r11]) rfl ⟨{ d2 with qk := true }, N, rfl, by omega, by omega, (by rw [HN3.out]; exact (by rw [HBY.out, HG2.out, sysR_no HQE.out] <;> rfl)), hb7⟩
                              | true =>
                                rw [hqi4] at HQS
                                have HQE := Lib.hid hqi4
                                clear hqi4
                                go_wp2_with (refine wpList_load_row (by rfl) 38 _ rfl g rfl 38 _ (0, 0) _ HT.out Tryz.underlying38 rfl (by kernel_rfl) ?_)
                                refine (HQS.out _).mono ?_
                                rintro e wz ⟨rfl, rfl⟩
                                go_wp2_with (refine wpList_load_row (by rfl) 38 _ rfl g rfl 38 _ (0, 0) _ HT.out Tryz.underlying38 rfl (by kernel_rfl) ?_)
                                refine (HIS.out _).mono ?_
                                rintro e wz ⟨V, M, b, rfl, hM1, hM2, hidr, rfl⟩
                                have HIDR := Lib.hid hidr
                                have hMI : (M : Int) ≤ (s.size : Int) := by omega
                                obtain ⟨i9, h91, h92, hsk9, hS9⟩ := qSpacesAt s M hM2 (by omega)
                                have HS9 := Lib.hid hS9
                                have HSK9 := Lib.hid hsk9
                                clear hidr hS9 hsk9
                                obtain ⟨dS, hdS⟩ : ∃ dS, dS = { d2 with sys := V, hs := true } := ⟨_, rfl⟩
                                have HDdS := Lib.hid hdS
                                have hTS := HT.out.setSys V
                                rw [← hdS] at hTS
                                have hBS := below_two (i := 5) (j := 6) (u := .string V) (v := .bool true) HBW.out HG0.out
                                have hRS := tokAt_two_set HR.out HGR.out (i := 5) (j := 6) (u := .string V) (v := .bool true)
                                clear hdS
                                cases b with
                                | false =>
                                  have u5 := (TD.cells HT.out).2.2.2.2.2.1
                                  have u6 := (TD.cells HT.out).2.2.2.2.2.2.1
                                  have f5 := TD.fr HT.out 5
                                  have f6 := TD.fr HT.out 6
                                  have HTS := Lib.hid hTS
                                  go_wp2_with (refine wpList_load_row (by rfl) 38 _ rfl g rfl 38 _ (0, 0) _ HTS.out Tryz.underlying38 rfl (by kernel_rfl) ?_)
                                  generalize hWS : World.setCell _ _ _ = WS
                                  rw [hWS] at hTS hBS hRS
                                  clear hWS u5 u6 f5 f6
                                  have HT := Lib.hid hTS
                                  have HBW := Lib.hid hBS
                                  have HR := Lib.hid hRS
                                  clear hTS hBS hRS
                                  refine (HQ.out dS _).mono ?_
                                  rintro e wq ⟨rfl, hq⟩
                                  go_wp2_with (refine wpList_load_row (by rfl) 38 _ rfl g rfl 38 _ (0, 0) _ HT.out Tryz.underlying38 rfl (by kernel_rfl) ?_)
                                  refine (HB.out M (by omega) { dS with qk := true } wq).mono ?_
                                  rintro e wb ⟨N, rfl, hN1, hN2, hN3, hqb⟩
                                  have HN3 := Lib.hid hN3
                                  have hR := (HR.out.below hq).below hqb
                                  clear hN3
                                  have HRR := Lib.hid (TokAt.heap hR)
                                  clear hR
                                  go_wp2_with (first | (refine wpList_load_row (by rfl) 38 _ rfl g rfl 38 _ (0, 0) _ HT.out Tryz.underlying38 rfl (by kernel_rfl) ?_) | (refine wpList_store_tok (by rfl) 38 _ _ rfl r #[.int .i64 1, .string dS.name, .bool dS.hn, .string dS.pub, .bool dS.hp, .string dS.sys, .bool dS.hs, .bool true, .slice none 0 0, .bool false, .string ⟨#[]⟩, .int .i32 0] rfl rfl 38 _ HRR.out (by kernel_rfl) rfl (oc12 _ _ _ _ _ _ _ _ _ _ _ _ _ _) ?_; intro w6 h6 b6; have H6 := Lib.hid h6; have B6 := Lib.hid b6; clear h6 b6))
                                  have hb7 := below_but (below_next (below_next HBW.out hq) hqb) B6.out HR0.out
                                  obtain ⟨r0, r1, r2, r3, r4, r5, r6, r7, r8, r9, r10, r11⟩ := TokAt.cells (show TokAt w6 r #[.int .i64 1, .string dS.name, .bool dS.hn, .string dS.pub, .bool dS.hp, .string dS.sys, .bool dS.hs, .bool true, .slice none 0 0, .bool false, .string ⟨#[]⟩, .int .i32 0] from H6.out)
                                  refine bodyPost_ret (v := .tuple #[tokD { dS with qk := true }, .int .i64 ((N : Nat) : Int)]) (by simp [results, Tryz.results21, go_sem, tokD, r0, r1, r2, r3, r4, r5, r6, r7, r8, r9, r10, r11]) rfl ⟨{ dS with qk := true }, N, rfl, by omega, by omega, (by rw [HN3.out]; exact (by rw [HG2.out, sysR_f HQE.out HIDR.out, HDdS.out] <;> rfl)), hb7⟩
                                | true =>
                                  have u5 := (TD.cells HT.out).2.2.2.2.2.1
                                  have u6 := (TD.cells HT.out).2.2.2.2.2.2.1
                                  have f5 := TD.fr HT.out 5
                                  have f6 := TD.fr HT.out 6
                                  have HTS := Lib.hid hTS
                                  go_wp2_with (refine wpList_load_row (by rfl) 38 _ rfl g rfl 38 _ (0, 0) _ HTS.out Tryz.underlying38 rfl (by kernel_rfl) ?_)
                                  generalize hWS : World.setCell _ _ _ = WS
                                  rw [hWS] at hTS hBS hRS
                                  clear hWS u5 u6 f5 f6
                                  have HT := Lib.hid hTS
                                  have HBW := Lib.hid hBS
                                  have HR := Lib.hid hRS
                                  clear hTS hBS hRS
                                  refine (HS9.out _).mono ?_
                                  rintro e wz ⟨rfl, rfl⟩
                                  by_cases he9 : i9 < s.size
                                  · have dE9 : ((i9 : Int) == (s.size : Int)) = false := by rw [beq_eq_false_iff_ne]; omega
                                    have hb9 := drop_byte s i9 he9
                                    have HBY9 := Lib.hid hb9
                                    clear hb9
                                    go_wp2_with (refine wpList_load_row (by rfl) 38 _ rfl g rfl 38 _ (0, 0) _ HT.out Tryz.underlying38 rfl (by kernel_rfl) ?_)
                                    refine (HB.out i9 (by omega) dS _).mono ?_
                                    rintro e wb ⟨N, rfl, hN1, hN2, hN3, hqb⟩
                                    have HN3 := Lib.hid hN3
                                    have hR := HR.out.below hqb
                                    clear hN3
                                    have HRR := Lib.hid (TokAt.heap hR)
                                    clear hR
                                    go_wp2_with (first | (refine wpList_load_row (by rfl) 38 _ rfl g rfl 38 _ (0, 0) _ HT.out Tryz.underlying38 rfl (by kernel_rfl) ?_) | (refine wpList_store_tok (by rfl) 38 _ _ rfl r #[.int .i64 1, .string dS.name, .bool dS.hn, .string dS.pub, .bool dS.hp, .string dS.sys, .bool dS.hs, .bool dS.qk, .slice none 0 0, .bool false, .string ⟨#[]⟩, .int .i32 0] rfl rfl 38 _ HRR.out (by kernel_rfl) rfl (oc12 _ _ _ _ _ _ _ _ _ _ _ _ _ _) ?_; intro w6 h6 b6; have H6 := Lib.hid h6; have B6 := Lib.hid b6; clear h6 b6))
                                    have hb7 := below_but (below_next HBW.out hqb) B6.out HR0.out
                                    obtain ⟨r0, r1, r2, r3, r4, r5, r6, r7, r8, r9, r10, r11⟩ := TokAt.cells (show TokAt w6 r #[.int .i64 1, .string dS.name, .bool dS.hn, .string dS.pub, .bool dS.hp, .string dS.sys, .bool dS.hs, .bool dS.qk, .slice none 0 0, .bool false, .string ⟨#[]⟩, .int .i32 0] from H6.out)
                                    refine bodyPost_ret (v := .tuple #[tokD dS, .int .i64 ((N : Nat) : Int)]) (by simp [results, Tryz.results21, go_sem, tokD, r0, r1, r2, r3, r4, r5, r6, r7, r8, r9, r10, r11]) rfl ⟨dS, N, rfl, by omega, by omega, (by rw [HN3.out]; exact (by rw [HG2.out, HBY9.out, sysR_t HQE.out HIDR.out (HSK9.out.trans HBY9.out), HDdS.out] <;> rfl)), hb7⟩
                                  · have dE9 : ((i9 : Int) == (s.size : Int)) = true := by rw [beq_iff_eq]; omega
                                    have HNI := Lib.hid (drop_end s i9 (by omega))
                                    go_wp2_with (refine wpList_load_row (by rfl) 38 _ rfl g rfl 38 _ (0, 0) _ HT.out Tryz.underlying38 rfl (by kernel_rfl) ?_)
                                    refine (HQ.out dS _).mono ?_
                                    rintro e wq ⟨rfl, hq⟩
                                    have hR := HR.out.below hq
                                    have HRR := Lib.hid (TokAt.heap hR)
                                    clear hR
                                    go_wp2_with (first | (refine wpList_load_row (by rfl) 38 _ rfl g rfl 38 _ (0, 0) _ HT.out Tryz.underlying38 rfl (by kernel_rfl) ?_) | (refine wpList_store_tok (by rfl) 38 _ _ rfl r #[.int .i64 1, .string dS.name, .bool dS.hn, .string dS.pub, .bool dS.hp, .string dS.sys, .bool dS.hs, .bool true, .slice none 0 0, .bool false, .string ⟨#[]⟩, .int .i32 0] rfl rfl 38 _ HRR.out (by kernel_rfl) rfl (oc12 _ _ _ _ _ _ _ _ _ _ _ _ _ _) ?_; intro w6 h6 b6; have H6 := Lib.hid h6; have B6 := Lib.hid b6; clear h6 b6))
                                    have hb7 := below_but (below_next HBW.out hq) B6.out HR0.out
                                    obtain ⟨r0, r1, r2, r3, r4, r5, r6, r7, r8, r9, r10, r11⟩ := TokAt.cells (show TokAt w6 r #[.int .i64 1, .string dS.name, .bool dS.hn, .string dS.pub, .bool dS.hp, .string dS.sys, .bool dS.hs, .bool true, .slice none 0 0, .bool false, .string ⟨#[]⟩, .int .i32 0] from H6.out)
                                    refine bodyPost_ret (v := .tuple #[tokD { dS with qk := true }, .int .i64 ((i9 : Nat) : Int)]) (by simp [results, Tryz.results21, go_sem, tokD, r0, r1, r2, r3, r4, r5, r6, r7, r8, r9, r10, r11]) rfl ⟨{ dS with qk := true }, i9, rfl, by omega, by omega, (by rw [HG2.out, HNI.out, sysR_e HQE.out HIDR.out (HSK9.out.trans HNI.out), HDdS.out] <;> rfl), hb7⟩
                          · have hJ4 : ¬ (i4 : Int) < (s.size : Int) := by omega
                            have hn := drop_end s i4 (by omega)
                            have hg : docL (s.data.toList.drop k) = sysR (dT d2) (s.data.toList.drop i4) := by
                              rw [HG2.out, pubR_e HQE.out HIDR.out (HSK9.out.trans hn), HDd2.out, hn] <;> rfl
                            have HG := Lib.hid hg
                            clear hg hn HG2 HBY HQS HIS HQE HIDR HSK9 HDd2
                            have dEi4 : ((i4 : Int) == (s.size : Int)) = true := by rw [beq_iff_eq]; omega
                            have HNI := Lib.hid (drop_end s i4 (by omega))
                            have hg := HG.out
                            rw [HNI.out] at hg
                            have HG2 := Lib.hid hg
                            clear hg
                            go_wp2_with (refine wpList_load_row (by rfl) 38 _ rfl g rfl 38 _ (0, 0) _ HT.out Tryz.underlying38 rfl (by kernel_rfl) ?_)
                            refine (HQ.out d2 _).mono ?_
                            rintro e wq ⟨rfl, hq⟩
                            have hR := HR.out.below hq
                            have HRR := Lib.hid (TokAt.heap hR)
                            clear hR
                            go_wp2_with (first | (refine wpList_load_row (by rfl) 38 _ rfl g rfl 38 _ (0, 0) _ HT.out Tryz.underlying38 rfl (by kernel_rfl) ?_) | (refine wpList_store_tok (by rfl) 38 _ _ rfl r #[.int .i64 1, .string d2.name, .bool d2.hn, .string d2.pub, .bool d2.hp, .string d2.sys, .bool d2.hs, .bool true, .slice none 0 0, .bool false, .string ⟨#[]⟩, .int .i32 0] rfl rfl 38 _ HRR.out (by kernel_rfl) rfl (oc12 _ _ _ _ _ _ _ _ _ _ _ _ _ _) ?_; intro w6 h6 b6; have H6 := Lib.hid h6; have B6 := Lib.hid b6; clear h6 b6))
                            have hb7 := below_but (below_next HBW.out hq) B6.out HR0.out
                            obtain ⟨r0, r1, r2, r3, r4, r5, r6, r7, r8, r9, r10, r11⟩ := TokAt.cells (show TokAt w6 r #[.int .i64 1, .string d2.name, .bool d2.hn, .string d2.pub, .bool d2.hp, .string d2.sys, .bool d2.hs, .bool true, .slice none 0 0, .bool false, .string ⟨#[]⟩, .int .i32 0] from H6.out)
                            refine bodyPost_ret (v := .tuple #[tokD { d2 with qk := true }, .int .i64 ((i4 : Nat) : Int)]) (by simp [results, Tryz.results21, go_sem, tokD, r0, r1, r2, r3, r4, r5, r6, r7, r8, r9, r10, r11]) rfl ⟨{ d2 with qk := true }, i4, rfl, by omega, by omega, (by rw [HG2.out, HNI.out] <;> rfl), hb7⟩
                    · have dEi3 : ((i3 : Int) == (s.size : Int)) = true := by rw [beq_iff_eq]; omega
                      have HNI := Lib.hid (drop_end s i3 (by omega))
                      have hg := HG.out
                      rw [HNI.out] at hg
                      have HG2 := Lib.hid hg
                      clear hg
                      go_wp2_with (refine wpList_load_row (by rfl) 38 _ rfl g rfl 38 _ (0, 0) _ HT.out Tryz.underlying38 rfl (by kernel_rfl) ?_)
                      refine (HQ.out d1 _).mono ?_
                      rintro e wq ⟨rfl, hq⟩
                      have hR := HR.out.below hq
                      have HRR := Lib.hid (TokAt.heap hR)
                      clear hR
                      go_wp2_with (first | (refine wpList_load_row (by rfl) 38 _ rfl g rfl 38 _ (0, 0) _ HT.out Tryz.underlying38 rfl (by kernel_rfl) ?_) | (refine wpList_store_tok (by rfl) 38 _ _ rfl r #[.int .i64 1, .string d1.name, .bool d1.hn, .string d1.pub, .bool d1.hp, .string d1.sys, .bool d1.hs, .bool true, .slice none 0 0, .bool false, .string ⟨#[]⟩, .int .i32 0] rfl rfl 38 _ HRR.out (by kernel_rfl) rfl (oc12 _ _ _ _ _ _ _ _ _ _ _ _ _ _) ?_; intro w6 h6 b6; have H6 := Lib.hid h6; have B6 := Lib.hid b6; clear h6 b6))
                      have hb7 := below_but (below_next HBW.out hq) B6.out HR0.out
                      obtain ⟨r0, r1, r2, r3, r4, r5, r6, r7, r8, r9, r10, r11⟩ := TokAt.cells (show TokAt w6 r #[.int .i64 1, .string d1.name, .bool d1.hn, .string d1.pub, .bool d1.hp, .string d1.sys, .bool d1.hs, .bool true, .slice none 0 0, .bool false, .string ⟨#[]⟩, .int .i32 0] from H6.out)
                      refine bodyPost_ret (v := .tuple #[tokD { d1 with qk := true }, .int .i64 ((i3 : Nat) : Int)]) (by simp [results, Tryz.results21, go_sem, tokD, r0, r1, r2, r3, r4, r5, r6, r7, r8, r9, r10, r11]) rfl ⟨{ d1 with qk := true }, i3, rfl, by omega, by omega, (by rw [HG2.out, HNI.out] <;> rfl), hb7⟩
                  · exact absurd (by have h := HSEL.out; rw [HR2.out] at h; exact h) hp
              · exact absurd HSEL.out (noPub_nil (HR2.out.trans (drop_end s i2 (by omega))))
            · have hy2 : spB ((s[j]'hjs).toNat : Int) = false := by
                have h : spU (s[j]'hjs) = false := by simpa using hsp
                exact h
              rw [hy2] at HSJ
              have dj : (((s[j]'hjs).toNat : Int) != 62) = false := by
                unfold ewU at hst
                simp only [Bool.or_eq_true, beq_iff_eq] at hst
                rcases hst with h | h
                · exact absurd h hsp
                · rw [h]; rfl
              have h62j : s[j]'hjs = 62 := by
                unfold ewU at hst
                simp only [Bool.or_eq_true, beq_iff_eq] at hst
                rcases hst with h | h
                · exact absurd h hsp
                · exact h
              have hij : i2 = j := by
                have e := HSK2.out
                rw [drop_byte s j hjs, sk_gt h62j, ← drop_byte s j hjs] at e
                have l := congrArg List.length e
                rw [List.length_drop, List.length_drop, size_list] at l
                omega
              have H62J := Lib.hid h62j
              have HIJ := Lib.hid hij
              clear h62j hij
              clear hsp hy2 hst
              go_wp2_with (refine wpList_load_row (by rfl) 38 _ rfl g rfl 38 _ (0, 0) _ HT.out Tryz.underlying38 rfl (by kernel_rfl) ?_)
              refine (HSJ.out _).mono ?_
              rintro e wz ⟨rfl, rfl⟩
              go_wp2_with (refine wpList_load_row (by rfl) 38 _ rfl g rfl 38 _ (0, 0) _ HT.out Tryz.underlying38 rfl (by kernel_rfl) ?_)
              have he2 : i2 < s.size := by have := HIJ.out; omega
              have h62 : s[i2]'he2 = 62 := by have h := HIJ.out; subst h; exact H62J.out
              exact absurd HSEL.out (noPub_62 (HR2.out.trans (drop_byte s i2 he2)) h62)
  · exact absurd HSEL.out (noPub_nil (rest2_nil (HSK1.out.trans (drop_end s i1 (by omega)))))
end Go.Proofs.YtnfccckodgknjaaGreatDoor
