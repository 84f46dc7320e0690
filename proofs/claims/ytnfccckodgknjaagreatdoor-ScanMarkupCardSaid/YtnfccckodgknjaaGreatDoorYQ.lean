/-
  The document's reader of document type declarations, whatever the word behind the name is.
  The document's readers of declarations and of markup.
  ScanDoctypes: the program's reader of document type declarations is that of the document.
  ScanMarkup: the program's readers of markup and of declarations are those of the document.
-/
import Derived.Test.YtnfccckodgknjaaGreatDoorYN
import Derived.Test.YtnfccckodgknjaaGreatDoorYP
import Derived.Test.YtnfccckodgknjaaGreatDoorYO
import Derived.Test.YtnfccckodgknjaaGreatDoorY24
import Derived.Test.YtnfccckodgknjaaGreatDoorY47
namespace Go.Proofs.YtnfccckodgknjaaGreatDoor
open Go.RowKit Go.Shelf Go.Lib
theorem qDoctype0 (s : ByteArray) (a : Int) (hs : s.size ≤ 100000) (w : World) :
    Calls Tryz.prog 21 #[.string s, .int .i64 a] w (QDoc s (clip s a) w) := by
  by_cases h : lowL ((rest2 (tlS s a)).take 6) = sPublic
  · exact qDoctypeB s a hs h w
  · exact qDoctypeA s a hs h w
end Go.Proofs.YtnfccckodgknjaaGreatDoor

namespace Go.Proofs.YtnfccckodgknjaaGreatDoor
open Go.RowKit Go.Shelf Go.Lib
set_option maxHeartbeats 4000000
set_option maxRecDepth 100000

theorem TokAt.hp {w : World} {g : Nat} {cs : Array Value} (h : TokAt w g cs) : w.heap[g]? = some (.cells cs 38 (0, 0)) := h
theorem pre_low (t : List UInt8) : sDoctype.isPrefixOf (lowL t) = decide (lowL (t.take 7) = sDoctype) := by
  rw [Bool.eq_iff_iff, List.isPrefixOf_iff_prefix, List.prefix_iff_eq_take, decide_eq_true_iff]
  show sDoctype = (lowL t).take 7 ↔ _
  unfold lowL
  rw [← List.map_take]
  exact eq_comm
theorem docR_of' {s : ByteArray} {k : Nat} {w w' : World} {d : Dt} {N : Nat} (hb : Below w.heap.size w w') (hk : k ≤ N) (hN : N ≤ s.size) (h : docL (s.data.toList.drop k) = (dT d, s.data.toList.drop N)) :
    DocR k (docT (s.data.toList.drop k)) w (.returned (.tuple #[tokD d, .int .i64 N])) w' := by
  have hkk : k ≤ s.size := by omega
  have h2 := docR_of (s := s) (a := (k : Int)) (w := w) (w' := w') (d := d) (N := N) hb (by rw [clip_nat s k hkk]; exact hk) hN (by rw [tlS_nat s k hkk]; exact h)
  rwa [clip_nat s k hkk, tlS_nat s k hkk] at h2
theorem qDoc (s : ByteArray) (k : Nat) (hk : k ≤ s.size) (hs : s.size ≤ 100000) (w : World) :
    Calls Tryz.prog 21 #[.string s, .int .i64 k] w (DocR k (docT (s.data.toList.drop k)) w) := by
  have h := qDoctype0 s (k : Int) hs w
  rw [clip_nat s k hk] at h
  refine h.mono ?_
  rintro e w' ⟨d, N, rfl, h1, h2, h3, hb⟩
  exact docR_of' hb h1 h2 h3
theorem qDoctype (s : ByteArray) (a : Int) (hs : s.size ≤ 100000) (w : World) :
    Calls Tryz.prog 21 #[.string s, .int .i64 a] w (DocR (clip s a) (docT (tlS s a)) w) := by
  refine (qDoctype0 s a hs w).mono ?_
  rintro e w' ⟨d, N, rfl, h1, h2, h3, hb⟩
  exact docR_of hb h1 h2 h3

theorem qDecl (s : ByteArray) (a : Int) (cd : Bool) (hs : s.size ≤ 100000) (w : World) :
    Calls Tryz.prog 26 #[.string s, .int .i64 a, .bool cd] w (MkR (clip s a) (declT (refL lgL true) cd (tlS s a)) w) := by
  have HC := Lib.hid (fun W => qClip s a W)
  have hk := clip_le s a
  unfold tlS
  generalize clip s a = k at HC hk ⊢
  obtain ⟨T, hT⟩ : ∃ T, T = s.extract k s.size := ⟨_, rfl⟩
  have hTl : T.data.toList = s.data.toList.drop k := by rw [hT, ext_drop]
  have hTs : T.size = s.size - k := by rw [hT, ByteArray.size_extract]; omega
  obtain ⟨L, hL⟩ : ∃ L, L = lowS T := ⟨_, rfl⟩
  have hLl : L.data.toList = lowL (s.data.toList.drop k) := by rw [hL, lowS_eq, hTl]; rfl
  obtain ⟨p1, hp1⟩ : ∃ p, p = [45, 45].isPrefixOf (s.data.toList.drop k) := ⟨_, rfl⟩
  obtain ⟨p2, hp2⟩ : ∃ p, p = sDoctype.isPrefixOf (lowL (s.data.toList.drop k)) := ⟨_, rfl⟩
  obtain ⟨p3, hp3⟩ : ∃ p, p = sCdata.isPrefixOf (s.data.toList.drop k) := ⟨_, rfl⟩
  have HG1 : Hid (∀ W, Calls Tryz.prog 85 #[.string T, .string ⟨#[45, 45]⟩] W fun e w' => e = .returned (.bool p1) ∧ w' = W) := Lib.hid (fun W => by have h := rBegins1 T ⟨#[45, 45]⟩ W; rw [hTl] at h; rw [hp1]; exact h)
  have HG2 : Hid (∀ W, Calls Tryz.prog 85 #[.string L, .string ⟨#[100, 111, 99, 116, 121, 112, 101]⟩] W fun e w' => e = .returned (.bool p2) ∧ w' = W) := Lib.hid (fun W => by have h := rBegins1 L ⟨#[100, 111, 99, 116, 121, 112, 101]⟩ W; rw [hLl] at h; rw [hp2]; exact h)
  have HG3 : Hid (∀ W, Calls Tryz.prog 85 #[.string T, .string ⟨#[91, 67, 68, 65, 84, 65, 91]⟩] W fun e w' => e = .returned (.bool p3) ∧ w' = W) := Lib.hid (fun W => by have h := rBegins1 T ⟨#[91, 67, 68, 65, 84, 65, 91]⟩ W; rw [hTl] at h; rw [hp3]; exact h)
  have HLO : Hid (∀ W, Calls Tryz.prog 14 #[.string T] W fun e w' => e = .returned (.string L) ∧ Below W.heap.size W w') := Lib.hid (fun W => by rw [hL]; exact rLower T (by omega) W)
  have HD1 : Hid (declT (refL lgL true) cd (s.data.toList.drop k) = goT (refL lgL true) (s.data.toList.drop k) (if p1 then (Mk.com (comL ((s.data.toList.drop k).drop 2)).1 (comL ((s.data.toList.drop k).drop 2)).2).shift 2 else if p2 then .doc 7 else if cd && p3 then (Mk.chars (utL [93, 93, 62] ((s.data.toList.drop k).drop 7)).1 (utL [93, 93, 62] ((s.data.toList.drop k).drop 7)).2).shift 7 else bogZ (s.data.toList.drop k))) := Lib.hid (by
    unfold declT declZ
    rw [hp1, hp2, hp3, pre_low]
    congr 1
    by_cases h : lowL (List.take 7 (s.data.toList.drop k)) = sDoctype
    · rw [if_pos h, decide_eq_true h]
      rfl
    · rw [if_neg h, decide_eq_false h]
      rfl)
  have h1s : p1 = true → k + 2 ≤ s.size := by
    intro h
    rw [hp1] at h
    have h2 := (List.isPrefixOf_iff_prefix.1 h).length_le
    rw [List.length_drop, size_list] at h2
    simp only [List.length_cons, List.length_nil] at h2
    omega
  have h2s : p2 = true → k + 7 ≤ s.size := by
    intro h
    rw [hp2] at h
    have h2 := (List.isPrefixOf_iff_prefix.1 h).length_le
    unfold lowL at h2
    rw [List.length_map, List.length_drop, size_list] at h2
    simp only [sDoctype, List.length_cons, List.length_nil] at h2
    omega
  have h3s : p3 = true → k + 7 ≤ s.size := by
    intro h
    rw [hp3] at h
    have h2 := (List.isPrefixOf_iff_prefix.1 h).length_le
    rw [List.length_drop, size_list] at h2
    simp only [sCdata, List.length_cons, List.length_nil] at h2
    omega
  have H1S := Lib.hid h1s
  have H2S := Lib.hid h2s
  have H3S := Lib.hid h3s
  have HT := Lib.hid hT
  have HS := Lib.hid hs
  have HK := Lib.hid hk
  have hkI : (k : Int) ≤ (s.size : Int) := by omega
  have hz2 : (s.size : Int) ≤ 100000 := by omega
  clear hT hTl hTs hL hLl hp1 hp2 hp3 h1s h2s h3s hs hk
  have hR0 : TokAt (w.alloc (.cells #[.int .i64 0, .string ⟨#[]⟩, .bool false, .string ⟨#[]⟩, .bool false, .string ⟨#[]⟩, .bool false, .bool false, .slice none 0 0, .bool false, .string ⟨#[]⟩, .int .i32 0] 38)) w.heap.size tok0 := tokAt_new w _
  have hB0 : Below w.heap.size w (w.alloc (.cells #[.int .i64 0, .string ⟨#[]⟩, .bool false, .string ⟨#[]⟩, .bool false, .string ⟨#[]⟩, .bool false, .bool false, .slice none 0 0, .bool false, .string ⟨#[]⟩, .int .i32 0] 38)) := below_alloc (Below.refl _ _) _
  obtain ⟨r, hr⟩ : ∃ r, r = w.heap.size := ⟨_, rfl⟩
  obtain ⟨W0, hW0⟩ : ∃ W, w.alloc (.cells #[.int .i64 0, .string ⟨#[]⟩, .bool false, .string ⟨#[]⟩, .bool false, .string ⟨#[]⟩, .bool false, .bool false, .slice none 0 0, .bool false, .string ⟨#[]⟩, .int .i32 0] 38) = W := ⟨_, rfl⟩
  rw [hW0] at hR0 hB0
  rw [← hr] at hR0
  have HR0 := Lib.hid (show w.heap.size ≤ r by omega)
  have HRE := Lib.hid hr
  have HRA := Lib.hid hR0
  have HB0 := Lib.hid hB0
  have HWE := Lib.hid hW0
  clear hR0 hB0 hr hW0
  go_enter Tryz.func26, Tryz.ntmps26
  go_wp2_with fail
  rw [HWE.out, ← HRE.out]
  refine (HC.out _).mono ?_
  rintro e wz ⟨rfl, rfl⟩
  go_wp2_with fail
  rw [← HT.out]
  refine (HG1.out _).mono ?_
  rintro e wz ⟨rfl, rfl⟩
  cases p1 with
  | true =>
    have hk2 := H1S.out rfl
    have hfin : declT (refL lgL true) cd (s.data.toList.drop k) = ({ kind := 4, data := (comL (s.data.toList.drop (k + 2))).1 }, [], 2 + (comL (s.data.toList.drop (k + 2))).2) := by
      rw [HD1.out, if_pos rfl, List.drop_drop]
      rfl
    have HF := Lib.hid hfin
    have HCO := Lib.hid (fun W => qComment s ((k + 2 : Nat) : Int) (by have := HS.out; omega) W)
    rw [clip_nat s (k + 2) hk2, tlS_nat s (k + 2) hk2, show ((k + 2 : Nat) : Int) = (k : Int) + 2 by omega] at HCO
    generalize (comL (s.data.toList.drop (k + 2))).2 = n at HCO HF
    generalize (comL (s.data.toList.drop (k + 2))).1 = d at HCO HF
    obtain ⟨D, hD⟩ : ∃ D, D = bl d := ⟨_, rfl⟩
    have HD := Lib.hid hD
    rw [← hD] at HCO
    obtain ⟨N, hN⟩ : ∃ N : Int, N = ((k + 2 + n : Nat) : Int) := ⟨_, rfl⟩
    have HN := Lib.hid hN
    rw [← hN] at HCO
    clear hfin hD hN hk2
    go_wp2_with fail
    refine (HCO.out _).mono ?_
    rintro e w4 ⟨rfl, hb4⟩
    have hR := HRA.out.below hb4
    have hB4 := below_next HB0.out hb4
    have HRR := Lib.hid hR
    obtain ⟨z0, z1, z2, z3, z4, z5, z6, z7, z8, z9, z10, z11⟩ := TokAt.zero hR
    obtain ⟨y0, y1, y2, y3, y4, y5, y6, y7, y8, y9, y10, y11⟩ := TokAt.frz hR
    clear hR
    go_wp2_with fail
    obtain ⟨w3, hw3, h3, hb3, hbut⟩ := retW HRR.out hB4 HR0.out (.int .i64 4) (.string ⟨#[]⟩) (.bool false) (.string ⟨#[]⟩) (.bool false) (.string ⟨#[]⟩) (.bool false) (.bool false) (.slice none 0 0) (.bool false) (.string D) (.int .i32 0)
    rw [hw3]
    obtain ⟨r0, r1, r2, r3, r4, r5, r6, r7, r8, r9, r10, r11⟩ := h3.cells
    clear hw3
    refine bodyPost_ret (v := .tuple #[.agg #[.int .i64 4, .string ⟨#[]⟩, .bool false, .string ⟨#[]⟩, .bool false, .string ⟨#[]⟩, .bool false, .bool false, .slice none 0 0, .bool false, .string D, .int .i32 0], .string ⟨#[]⟩, .int .i64 N]) (by simp [results, Tryz.results26, go_sem, r0, r1, r2, r3, r4, r5, r6, r7, r8, r9, r10, r11]) rfl ?_
    rw [HF.out, HN.out, HD.out]
    exact mkR_com' w w3 hb3 (by omega)
  | false =>
    go_wp2_with fail
    refine (HLO.out _).mono ?_
    rintro e w3 ⟨rfl, hb3⟩
    have hR3 := HRA.out.below hb3
    have hB3 := below_next HB0.out hb3
    have HR3 := Lib.hid hR3
    have HB3 := Lib.hid hB3
    clear hR3 hB3 hb3
    go_wp2_with fail
    refine (HG2.out _).mono ?_
    rintro e wz ⟨rfl, rfl⟩
    cases p2 with
    | true =>
      have hk7 := H2S.out rfl
      have hfin : declT (refL lgL true) cd (s.data.toList.drop k) = ((docT (s.data.toList.drop (k + 7))).1, [], 7 + (docT (s.data.toList.drop (k + 7))).2) := by
        rw [HD1.out, if_neg Bool.false_ne_true, if_pos rfl]
        show (_, _, _) = _
        rw [List.drop_drop]
      have HF := Lib.hid hfin
      have HD := Lib.hid (fun W => qDoc s (k + 7) hk7 HS.out W)
      rw [show ((k + 7 : Nat) : Int) = (k : Int) + 7 by omega] at HD
      generalize docT (s.data.toList.drop (k + 7)) = X at HD HF
      obtain ⟨T', n⟩ := X
      unfold DocR at HD
      obtain ⟨N, hN⟩ : ∃ N : Int, N = ((k + 7 + n : Nat) : Int) := ⟨_, rfl⟩
      simp only [← hN] at HD
      have HN := Lib.hid (show ((k + (7 + n) : Nat) : Int) = N by rw [hN]; omega)
      clear hfin hN hk7
      go_wp2_with fail
      refine (HD.out _).mono ?_
      rintro e w5 ⟨v, rfl, ht, hb5⟩
      obtain ⟨k1, n1, hn1, p1, hp1, y1, hy1, q1, A1, pn1, pc1, sc1, d1, r1, rfl, -⟩ := ht.form
      have hR := HR3.out.below hb5
      have HB5 := Lib.hid (below_next HB3.out hb5)
      have HTK := Lib.hid ht
      clear ht hb5
      have HG := Lib.hid (TokAt.hp (tokAt_new w5 #[.int .i64 k1, .string n1, .bool hn1, .string p1, .bool hp1, .string y1, .bool hy1, .bool q1, .slice A1 pn1 pc1, .bool sc1, .string d1, .int .i32 r1]))
      have HRR := Lib.hid (TokAt.hp (hR.below (below_alloc (Below.refl _ w5) (.cells #[.int .i64 k1, .string n1, .bool hn1, .string p1, .bool hp1, .string y1, .bool hy1, .bool q1, .slice A1 pn1 pc1, .bool sc1, .string d1, .int .i32 r1] 38))))
      clear hR
      ((try go_simp); repeat (first | (refine wpList_load_row (by rfl) 38 _ rfl w5.heap.size rfl 38 _ (0, 0) _ HG.out Tryz.underlying38 rfl (by kernel_rfl) ?_) | (refine wpList_store_tok (by rfl) 38 _ _ rfl r #[.int .i64 k1, .string n1, .bool hn1, .string p1, .bool hp1, .string y1, .bool hy1, .bool q1, .slice A1 pn1 pc1, .bool sc1, .string d1, .int .i32 r1] rfl rfl 38 _ HRR.out (by kernel_rfl) rfl (oc12 _ _ _ _ _ _ _ _ _ _ _ _ _ _) ?_; intro w6 h6 b6; have H6 := Lib.hid h6; have B6 := Lib.hid b6; clear h6 b6) | go_values | go_skip | go_guarded | go_step | go_upon | go_back))
      have hb7 := below_but (below_alloc HB5.out _) B6.out HR0.out
      obtain ⟨e0, e1, e2, e3, e4, e5, e6, e7, e8, e9, e10, e11⟩ := TokAt.cells (show TokAt w6 r #[.int .i64 k1, .string n1, .bool hn1, .string p1, .bool hp1, .string y1, .bool hy1, .bool q1, .slice A1 pn1 pc1, .bool sc1, .string d1, .int .i32 r1] from H6.out)
      refine bodyPost_ret (v := .tuple #[.agg #[.int .i64 k1, .string n1, .bool hn1, .string p1, .bool hp1, .string y1, .bool hy1, .bool q1, .slice A1 pn1 pc1, .bool sc1, .string d1, .int .i32 r1], .string ⟨#[]⟩, .int .i64 N]) (by simp [results, Tryz.results26, go_sem, e0, e1, e2, e3, e4, e5, e6, e7, e8, e9, e10, e11]) rfl ?_
      rw [HF.out, ← HN.out]
      exact ⟨_, rfl, tokRow_but (HTK.out.below (below_alloc (Below.refl _ w5) _)) HRR.out rfl B6.out, hb7⟩
    | false =>
      cases hcd : (cd && p3) with
      | true =>
        obtain ⟨rfl, rfl⟩ : cd = true ∧ p3 = true := by simpa using hcd
        have hk7 := H3S.out rfl
        have hfin : declT (refL lgL true) true (s.data.toList.drop k) = ({}, (utL [93, 93, 62] (s.data.toList.drop (k + 7))).1, 7 + (utL [93, 93, 62] (s.data.toList.drop (k + 7))).2) := by
          rw [HD1.out, if_neg Bool.false_ne_true, if_neg Bool.false_ne_true, if_pos (by rfl), List.drop_drop]
          rfl
        have HF := Lib.hid hfin
        have HCO := Lib.hid (fun W => qCdata s ((k + 7 : Nat) : Int) (by have := HS.out; omega) W)
        rw [clip_nat s (k + 7) hk7, tlS_nat s (k + 7) hk7, show ((k + 7 : Nat) : Int) = (k : Int) + 7 by omega] at HCO
        generalize (utL [93, 93, 62] (s.data.toList.drop (k + 7))).2 = n at HCO HF
        generalize (utL [93, 93, 62] (s.data.toList.drop (k + 7))).1 = d at HCO HF
        obtain ⟨D, hD⟩ : ∃ D, D = bl d := ⟨_, rfl⟩
        have HD := Lib.hid hD
        rw [← hD] at HCO
        obtain ⟨N, hN⟩ : ∃ N : Int, N = ((k + 7 + n : Nat) : Int) := ⟨_, rfl⟩
        rw [← hN] at HCO
        have HN := Lib.hid (show ((k + (7 + n) : Nat) : Int) = N by rw [hN]; omega)
        clear hfin hD hN hk7 hcd
        go_wp2_with fail
        refine (HG3.out _).mono ?_
        rintro e wz ⟨rfl, rfl⟩
        go_wp2_with fail
        refine (HCO.out _).mono ?_
        rintro e wz ⟨rfl, rfl⟩
        have hR := HR3.out
        have hBb := HB3.out
        have HRR := Lib.hid hR
        obtain ⟨z0, z1, z2, z3, z4, z5, z6, z7, z8, z9, z10, z11⟩ := TokAt.zero hR
        obtain ⟨y0, y1, y2, y3, y4, y5, y6, y7, y8, y9, y10, y11⟩ := TokAt.frz hR
        clear hR
        go_wp2_with fail
        obtain ⟨w3, hw3, h3, hb3, hbut⟩ := retW HRR.out hBb HR0.out (.int .i64 0) (.string ⟨#[]⟩) (.bool false) (.string ⟨#[]⟩) (.bool false) (.string ⟨#[]⟩) (.bool false) (.bool false) (.slice none 0 0) (.bool false) (.string ⟨#[]⟩) (.int .i32 0)
        rw [hw3]
        obtain ⟨r0, r1, r2, r3, r4, r5, r6, r7, r8, r9, r10, r11⟩ := h3.cells
        clear hw3
        refine bodyPost_ret (v := .tuple #[.agg #[.int .i64 0, .string ⟨#[]⟩, .bool false, .string ⟨#[]⟩, .bool false, .string ⟨#[]⟩, .bool false, .bool false, .slice none 0 0, .bool false, .string ⟨#[]⟩, .int .i32 0], .string D, .int .i64 N]) (by simp [results, Tryz.results26, go_sem, r0, r1, r2, r3, r4, r5, r6, r7, r8, r9, r10, r11]) rfl ?_
        rw [HF.out, HD.out, ← HN.out]
        exact mkR_chars w w3 hb3
      | false =>
        have hfin : declT (refL lgL true) cd (s.data.toList.drop k) = ({ kind := 4, data := nulL (utL [62] (s.data.toList.drop k)).1 }, [], (utL [62] (s.data.toList.drop k)).2) := by
          rw [HD1.out, if_neg Bool.false_ne_true, if_neg Bool.false_ne_true, hcd, if_neg Bool.false_ne_true]
          rfl
        have HF := Lib.hid hfin
        have HCO := Lib.hid (fun W => qBogus s (k : Int) (by have := HS.out; omega) W)
        rw [clip_nat s k HK.out, tlS_nat s k HK.out] at HCO
        generalize (utL [62] (s.data.toList.drop k)).2 = n at HCO HF
        generalize nulL (utL [62] (s.data.toList.drop k)).1 = d at HCO HF
        obtain ⟨D, hD⟩ : ∃ D, D = bl d := ⟨_, rfl⟩
        have HD := Lib.hid hD
        rw [← hD] at HCO
        obtain ⟨N, hN⟩ : ∃ N : Int, N = ((k + n : Nat) : Int) := ⟨_, rfl⟩
        have HN := Lib.hid hN
        rw [← hN] at HCO
        clear hfin hD hN
        cases cd with
        | true =>
          obtain rfl : p3 = false := by simpa using hcd
          clear hcd
          go_wp2_with fail
          refine (HG3.out _).mono ?_
          rintro e wz ⟨rfl, rfl⟩
          go_wp2_with fail
          refine (HCO.out _).mono ?_
          rintro e wz ⟨rfl, rfl⟩
          have hR := HR3.out
          have hBb := HB3.out
          have HRR := Lib.hid hR
          obtain ⟨z0, z1, z2, z3, z4, z5, z6, z7, z8, z9, z10, z11⟩ := TokAt.zero hR
          obtain ⟨y0, y1, y2, y3, y4, y5, y6, y7, y8, y9, y10, y11⟩ := TokAt.frz hR
          clear hR
          go_wp2_with fail
          obtain ⟨w3, hw3, h3, hb3, hbut⟩ := retW HRR.out hBb HR0.out (.int .i64 4) (.string ⟨#[]⟩) (.bool false) (.string ⟨#[]⟩) (.bool false) (.string ⟨#[]⟩) (.bool false) (.bool false) (.slice none 0 0) (.bool false) (.string D) (.int .i32 0)
          rw [hw3]
          obtain ⟨r0, r1, r2, r3, r4, r5, r6, r7, r8, r9, r10, r11⟩ := h3.cells
          clear hw3
          refine bodyPost_ret (v := .tuple #[.agg #[.int .i64 4, .string ⟨#[]⟩, .bool false, .string ⟨#[]⟩, .bool false, .string ⟨#[]⟩, .bool false, .bool false, .slice none 0 0, .bool false, .string D, .int .i32 0], .string ⟨#[]⟩, .int .i64 N]) (by simp [results, Tryz.results26, go_sem, r0, r1, r2, r3, r4, r5, r6, r7, r8, r9, r10, r11]) rfl ?_
          rw [HF.out, HN.out, HD.out]
          exact mkR_com' w w3 hb3 (by omega)
        | false =>
          clear hcd
          go_wp2_with fail
          refine (HCO.out _).mono ?_
          rintro e wz ⟨rfl, rfl⟩
          have hR := HR3.out
          have hBb := HB3.out
          have HRR := Lib.hid hR
          obtain ⟨z0, z1, z2, z3, z4, z5, z6, z7, z8, z9, z10, z11⟩ := TokAt.zero hR
          obtain ⟨y0, y1, y2, y3, y4, y5, y6, y7, y8, y9, y10, y11⟩ := TokAt.frz hR
          clear hR
          go_wp2_with fail
          obtain ⟨w3, hw3, h3, hb3, hbut⟩ := retW HRR.out hBb HR0.out (.int .i64 4) (.string ⟨#[]⟩) (.bool false) (.string ⟨#[]⟩) (.bool false) (.string ⟨#[]⟩) (.bool false) (.bool false) (.slice none 0 0) (.bool false) (.string D) (.int .i32 0)
          rw [hw3]
          obtain ⟨r0, r1, r2, r3, r4, r5, r6, r7, r8, r9, r10, r11⟩ := h3.cells
          clear hw3
          refine bodyPost_ret (v := .tuple #[.agg #[.int .i64 4, .string ⟨#[]⟩, .bool false, .string ⟨#[]⟩, .bool false, .string ⟨#[]⟩, .bool false, .bool false, .slice none 0 0, .bool false, .string D, .int .i32 0], .string ⟨#[]⟩, .int .i64 N]) (by simp [results, Tryz.results26, go_sem, r0, r1, r2, r3, r4, r5, r6, r7, r8, r9, r10, r11]) rfl ?_
          rw [HF.out, HN.out, HD.out]
          exact mkR_com' w w3 hb3 (by omega)
theorem mkT_bang (R : RefF) (cd : Bool) {c : UInt8} (r : List UInt8) (h : c = 33) : mkT R cd (c :: r) = shT 1 (declT R cd r) := by rw [mkT_cons, if_pos h]
theorem mkT_let (R : RefF) (cd : Bool) {c : UInt8} (r : List UInt8) (h : ¬ c = 33) (h2 : leU c = true) : mkT R cd (c :: r) = ((tagT R false (c :: r)).1, [], (tagT R false (c :: r)).2.2) := by
  rw [mkT_cons, if_neg h, if_pos h2]
  show (_, _, _) = _
  rw [List.drop_zero, Nat.zero_add]
theorem mkT_que (R : RefF) (cd : Bool) {c : UInt8} (r : List UInt8) (h2 : leU c = false) (h : c = 63) : mkT R cd (c :: r) = ({ kind := 4, data := nulL (utL [62] (c :: r)).1 }, [], (utL [62] (c :: r)).2) := by
  rw [mkT_cons, if_neg (by rw [h]; decide), h2, if_neg Bool.false_ne_true, if_neg (by rw [h]; decide), if_pos h]
  rfl
theorem mkT_no (R : RefF) (cd : Bool) {c : UInt8} (r : List UInt8) (h1 : ¬ c = 33) (h2 : leU c = false) (h3 : ¬ c = 63) (h4 : ¬ c = 47) : mkT R cd (c :: r) = ({}, [60], 0) := by
  rw [mkT_cons, if_neg h1, h2, if_neg Bool.false_ne_true, if_neg h4, if_neg h3]
theorem mkT_sl (R : RefF) (cd : Bool) {c : UInt8} (r : List UInt8) (h4 : c = 47) : mkT R cd (c :: r) = shT 1 (closeT R r) := by
  rw [mkT_cons, if_neg (by rw [h4]; decide), show leU c = false by rw [h4]; decide, if_neg Bool.false_ne_true, if_pos h4]
theorem closeT_gt (R : RefF) {d : UInt8} (r : List UInt8) (h : d = 62) : closeT R (d :: r) = ({}, [], 1) := by
  subst h
  exact clos_gt (by rw [sees_q]; rfl) (by simp [List.isPrefixOf])
theorem closeT_let (R : RefF) {d : UInt8} (r : List UInt8) (h : leU d = true) : closeT R (d :: r) = ((tagT R true (d :: r)).1, [], (tagT R true (d :: r)).2.2) := clos_tag (by rw [sees_q]; exact h)
theorem closeT_bog (R : RefF) {d : UInt8} (r : List UInt8) (h : leU d = false) (h2 : ¬ d = 62) : closeT R (d :: r) = ({ kind := 4, data := nulL (utL [62] (d :: r)).1 }, [], (utL [62] (d :: r)).2) := by
  rw [clos_bog (by rw [sees_q]; exact h) (by simp [List.isPrefixOf]; exact fun e => h2 e.symm) (by simp)]
  rfl
theorem int_ne {a b : UInt8} (n : Int) (hn : n = (b.toNat : Int)) (h : ¬ a = b) : (((a.toNat : Int)) == n) = false := by
  rw [beq_eq_false_iff_ne, hn]
  intro e
  exact h (UInt8.toNat_inj.1 (by omega))
theorem int_eq {a b : UInt8} (n : Int) (hn : n = (b.toNat : Int)) (h : a = b) : (((a.toNat : Int)) == n) = true := by rw [h, hn]; simp

theorem qMarkup (s : ByteArray) (a : Int) (cd : Bool) (hs : s.size ≤ 100000) (w : World) :
    Calls Tryz.prog 24 #[.string s, .int .i64 a, .bool cd] w (MkR (clip s a) (mkT (refL lgL true) cd (tlS s a)) w) := by
  have HC := Lib.hid (fun W => qClip s a W)
  have hk := clip_le s a
  unfold tlS
  generalize clip s a = k at HC hk ⊢
  have HS := Lib.hid hs
  have HK := Lib.hid hk
  have hkI : (k : Int) ≤ (s.size : Int) := by omega
  have hz2 : (s.size : Int) ≤ 100000 := by omega
  have HLE := Lib.hid (fun (b : UInt8) W => show Calls Tryz.prog 80 #[.int .u8 (b.toNat : Int)] W (fun e w' => e = .returned (.bool (leU b)) ∧ w' = W) from rLetter (b.toNat : Int) W)
  clear hs
  have hR0 : TokAt (w.alloc (.cells #[.int .i64 0, .string ⟨#[]⟩, .bool false, .string ⟨#[]⟩, .bool false, .string ⟨#[]⟩, .bool false, .bool false, .slice none 0 0, .bool false, .string ⟨#[]⟩, .int .i32 0] 38)) w.heap.size tok0 := tokAt_new w _
  have hB0 : Below w.heap.size w (w.alloc (.cells #[.int .i64 0, .string ⟨#[]⟩, .bool false, .string ⟨#[]⟩, .bool false, .string ⟨#[]⟩, .bool false, .bool false, .slice none 0 0, .bool false, .string ⟨#[]⟩, .int .i32 0] 38)) := below_alloc (Below.refl _ _) _
  obtain ⟨r, hr⟩ : ∃ r, r = w.heap.size := ⟨_, rfl⟩
  obtain ⟨W0, hW0⟩ : ∃ W, w.alloc (.cells #[.int .i64 0, .string ⟨#[]⟩, .bool false, .string ⟨#[]⟩, .bool false, .string ⟨#[]⟩, .bool false, .bool false, .slice none 0 0, .bool false, .string ⟨#[]⟩, .int .i32 0] 38) = W := ⟨_, rfl⟩
  rw [hW0] at hR0 hB0
  rw [← hr] at hR0
  have HR0 := Lib.hid (show w.heap.size ≤ r by omega)
  have HRE := Lib.hid hr
  have HRA := Lib.hid hR0
  have HB0 := Lib.hid hB0
  have HWE := Lib.hid hW0
  clear hR0 hB0 hr hW0
  go_enter Tryz.func24, Tryz.ntmps24
  go_wp2_with fail
  rw [HWE.out, ← HRE.out]
  refine (HC.out _).mono ?_
  rintro e wz ⟨rfl, rfl⟩
  by_cases hks : k < s.size
  · have dE : ((k : Int) == (s.size : Int)) = false := by rw [beq_eq_false_iff_ne]; omega
    have hJ : (k : Int) < (s.size : Int) := by omega
    have hbt := drop_byte s k hks
    have HBT := Lib.hid hbt
    clear hbt hk
    by_cases h33 : s[k]'hks = 33
    · have d33 : (((s[k]'hks).toNat : Int) == 33) = true := int_eq 33 rfl h33
      have hk1 : k + 1 ≤ s.size := hks
      have hfin : mkT (refL lgL true) cd (s.data.toList.drop k) = shT 1 (declT (refL lgL true) cd (s.data.toList.drop (k + 1))) := by rw [HBT.out, mkT_bang _ _ _ h33]
      have hD := fun W => qDecl s ((k + 1 : Nat) : Int) cd HS.out W
      rw [clip_nat s (k + 1) hk1, tlS_nat s (k + 1) hk1, show ((k + 1 : Nat) : Int) = (k : Int) + 1 by omega] at hD
      generalize declT (refL lgL true) cd (s.data.toList.drop (k + 1)) = X at hD hfin
      obtain ⟨T', C0, n⟩ := X
      unfold MkR at hD
      obtain ⟨N, hN⟩ : ∃ N : Int, N = ((k + 1 + n : Nat) : Int) := ⟨_, rfl⟩
      obtain ⟨C, hC⟩ : ∃ C, C = bl C0 := ⟨_, rfl⟩
      simp only [← hN, ← hC] at hD
      have HN := Lib.hid (show ((k + (1 + n) : Nat) : Int) = N by rw [hN]; omega)
      have HCC := Lib.hid hC
      have HF := Lib.hid hfin
      have HD := Lib.hid hD
      clear hfin hD hN hC h33 hk1
      go_wp2_with fail
      refine (HD.out _).mono ?_
      rintro e w5 ⟨v, rfl, ht, hb5⟩
      obtain ⟨k1, n1, hn1, p1, hp1, y1, hy1, q1, A1, pn1, pc1, sc1, d1, r1, rfl, -⟩ := ht.form
      have hR := HRA.out.below hb5
      have HB5 := Lib.hid (below_next HB0.out hb5)
      have HTK := Lib.hid ht
      clear ht hb5
      have HRR := Lib.hid (TokAt.hp hR)
      clear hR
      ((try go_simp); repeat (first | (refine wpList_store_tok (by rfl) 38 _ _ rfl r #[.int .i64 k1, .string n1, .bool hn1, .string p1, .bool hp1, .string y1, .bool hy1, .bool q1, .slice A1 pn1 pc1, .bool sc1, .string d1, .int .i32 r1] rfl rfl 38 _ HRR.out (by kernel_rfl) rfl (oc12 _ _ _ _ _ _ _ _ _ _ _ _ _ _) ?_; intro w6 h6 b6; have H6 := Lib.hid h6; have B6 := Lib.hid b6; clear h6 b6) | go_values | go_skip | go_guarded | go_step | go_upon | go_back))
      have hb7 := below_but HB5.out B6.out HR0.out
      obtain ⟨e0, e1, e2, e3, e4, e5, e6, e7, e8, e9, e10, e11⟩ := TokAt.cells (show TokAt w6 r #[.int .i64 k1, .string n1, .bool hn1, .string p1, .bool hp1, .string y1, .bool hy1, .bool q1, .slice A1 pn1 pc1, .bool sc1, .string d1, .int .i32 r1] from H6.out)
      refine bodyPost_ret (v := .tuple #[.agg #[.int .i64 k1, .string n1, .bool hn1, .string p1, .bool hp1, .string y1, .bool hy1, .bool q1, .slice A1 pn1 pc1, .bool sc1, .string d1, .int .i32 r1], .string C, .int .i64 N]) (by simp [results, Tryz.results24, go_sem, e0, e1, e2, e3, e4, e5, e6, e7, e8, e9, e10, e11]) rfl ?_
      rw [HF.out, ← HN.out, HCC.out]
      show MkR _ (T', C0, 1 + n) _ _ _
      exact ⟨_, rfl, tokRow_but (HTK.out) HRR.out rfl B6.out, hb7⟩
    · have d33 : (((s[k]'hks).toNat : Int) == 33) = false := int_ne 33 rfl h33
      have HLK := Lib.hid (fun W => HLE.out (s[k]'hks) W)
      cases hle : leU (s[k]'hks) with
      | true =>
        rw [hle] at HLK
        have hfin : mkT (refL lgL true) cd (s.data.toList.drop k) = ((tagT (refL lgL true) false (s.data.toList.drop k)).1, [], (tagT (refL lgL true) false (s.data.toList.drop k)).2.2) := by
          rw [HBT.out, mkT_let _ _ _ h33 hle]
        have hD := fun W => qTag s (k : Int) false HS.out W
        rw [clip_nat s k HK.out, tlS_nat s k HK.out] at hD
        generalize tagT (refL lgL true) false (s.data.toList.drop k) = X at hD hfin
        obtain ⟨T', TB, n⟩ := X
        unfold TagR at hD
        obtain ⟨N, hN⟩ : ∃ N : Int, N = ((k + n : Nat) : Int) := ⟨_, rfl⟩
        simp only [← hN] at hD
        have HN := Lib.hid (show ((k + (n) : Nat) : Int) = N by rw [hN] <;> omega)
        have HF := Lib.hid hfin
        have HD := Lib.hid hD
        clear hfin hD hN
        clear hle h33
        go_wp2_with fail
        refine (HLK.out _).mono ?_
        rintro e wz ⟨rfl, rfl⟩
        go_wp2_with fail
        refine (HD.out _).mono ?_
        rintro e w5 ⟨v, rfl, ht, hb5⟩
        obtain ⟨k1, n1, hn1, p1, hp1, y1, hy1, q1, A1, pn1, pc1, sc1, d1, r1, rfl, -⟩ := ht.form
        have hR := HRA.out.below hb5
        have HB5 := Lib.hid (below_next HB0.out hb5)
        have HTK := Lib.hid ht
        clear ht hb5
        have HG := Lib.hid (TokAt.hp (tokAt_new w5 #[.int .i64 k1, .string n1, .bool hn1, .string p1, .bool hp1, .string y1, .bool hy1, .bool q1, .slice A1 pn1 pc1, .bool sc1, .string d1, .int .i32 r1]))
        have HRR := Lib.hid (TokAt.hp (hR.below (below_alloc (Below.refl _ w5) (.cells #[.int .i64 k1, .string n1, .bool hn1, .string p1, .bool hp1, .string y1, .bool hy1, .bool q1, .slice A1 pn1 pc1, .bool sc1, .string d1, .int .i32 r1] 38))))
        clear hR
        ((try go_simp); repeat (first | (refine wpList_load_row (by rfl) 38 _ rfl w5.heap.size rfl 38 _ (0, 0) _ HG.out Tryz.underlying38 rfl (by kernel_rfl) ?_) | (refine wpList_store_tok (by rfl) 38 _ _ rfl r #[.int .i64 k1, .string n1, .bool hn1, .string p1, .bool hp1, .string y1, .bool hy1, .bool q1, .slice A1 pn1 pc1, .bool sc1, .string d1, .int .i32 r1] rfl rfl 38 _ HRR.out (by kernel_rfl) rfl (oc12 _ _ _ _ _ _ _ _ _ _ _ _ _ _) ?_; intro w6 h6 b6; have H6 := Lib.hid h6; have B6 := Lib.hid b6; clear h6 b6) | go_values | go_skip | go_guarded | go_step | go_upon | go_back))
        have hb7 := below_but (below_alloc HB5.out _) B6.out HR0.out
        obtain ⟨e0, e1, e2, e3, e4, e5, e6, e7, e8, e9, e10, e11⟩ := TokAt.cells (show TokAt w6 r #[.int .i64 k1, .string n1, .bool hn1, .string p1, .bool hp1, .string y1, .bool hy1, .bool q1, .slice A1 pn1 pc1, .bool sc1, .string d1, .int .i32 r1] from H6.out)
        refine bodyPost_ret (v := .tuple #[.agg #[.int .i64 k1, .string n1, .bool hn1, .string p1, .bool hp1, .string y1, .bool hy1, .bool q1, .slice A1 pn1 pc1, .bool sc1, .string d1, .int .i32 r1], .string ⟨#[]⟩, .int .i64 N]) (by simp [results, Tryz.results24, go_sem, e0, e1, e2, e3, e4, e5, e6, e7, e8, e9, e10, e11]) rfl ?_
        rw [HF.out, ← HN.out]
        exact ⟨_, rfl, tokRow_but (HTK.out.below (below_alloc (Below.refl _ w5) _)) HRR.out rfl B6.out, hb7⟩
      | false =>
        rw [hle] at HLK
        by_cases h63 : s[k]'hks = 63
        · have d63 : (((s[k]'hks).toNat : Int) == 63) = true := int_eq 63 rfl h63
          have hfin : mkT (refL lgL true) cd (s.data.toList.drop k) = ({ kind := 4, data := nulL (utL [62] (s.data.toList.drop k)).1 }, [], (utL [62] (s.data.toList.drop k)).2) := by
            rw [HBT.out, mkT_que _ _ _ hle h63]
          have HF := Lib.hid hfin
          have HCO := Lib.hid (fun W => qBogus s (k : Int) (by have := HS.out; omega) W)
          rw [clip_nat s k HK.out, tlS_nat s k HK.out] at HCO
          generalize (utL [62] (s.data.toList.drop k)).2 = n at HCO HF
          generalize nulL (utL [62] (s.data.toList.drop k)).1 = d at HCO HF
          obtain ⟨D, hD⟩ : ∃ D, D = bl d := ⟨_, rfl⟩
          have HD := Lib.hid hD
          rw [← hD] at HCO
          obtain ⟨N, hN⟩ : ∃ N : Int, N = ((k + n : Nat) : Int) := ⟨_, rfl⟩
          have HN := Lib.hid hN
          rw [← hN] at HCO
          clear hfin hD hN
          clear hle h33 h63
          go_wp2_with fail
          refine (HLK.out _).mono ?_
          rintro e wz ⟨rfl, rfl⟩
          go_wp2_with fail
          refine (HCO.out _).mono ?_
          rintro e wz ⟨rfl, rfl⟩
          have hR := HRA.out
          have hBb := HB0.out
          have HRR := Lib.hid hR
          obtain ⟨z0, z1, z2, z3, z4, z5, z6, z7, z8, z9, z10, z11⟩ := TokAt.zero hR
          obtain ⟨y0, y1, y2, y3, y4, y5, y6, y7, y8, y9, y10, y11⟩ := TokAt.frz hR
          clear hR
          go_wp2_with fail
          obtain ⟨w3, hw3, h3, hb3, hbut⟩ := retW HRR.out hBb HR0.out (.int .i64 4) (.string ⟨#[]⟩) (.bool false) (.string ⟨#[]⟩) (.bool false) (.string ⟨#[]⟩) (.bool false) (.bool false) (.slice none 0 0) (.bool false) (.string D) (.int .i32 0)
          rw [hw3]
          obtain ⟨r0, r1, r2, r3, r4, r5, r6, r7, r8, r9, r10, r11⟩ := h3.cells
          clear hw3
          refine bodyPost_ret (v := .tuple #[.agg #[.int .i64 4, .string ⟨#[]⟩, .bool false, .string ⟨#[]⟩, .bool false, .string ⟨#[]⟩, .bool false, .bool false, .slice none 0 0, .bool false, .string D, .int .i32 0], .string ⟨#[]⟩, .int .i64 N]) (by simp [results, Tryz.results24, go_sem, r0, r1, r2, r3, r4, r5, r6, r7, r8, r9, r10, r11]) rfl ?_
          rw [HF.out, HN.out, HD.out]
          exact mkR_com' w w3 hb3 (by omega)
        · have d63 : (((s[k]'hks).toNat : Int) == 63) = false := int_ne 63 rfl h63
          by_cases h47 : s[k]'hks = 47
          · have d47 : (((s[k]'hks).toNat : Int) == 47) = true := int_eq 47 rfl h47
            have e47 : (((s[k]'hks).toNat : Int) != 47) = false := by rw [bne, d47]; rfl
            have hm1 : mkT (refL lgL true) cd (s.data.toList.drop k) = shT 1 (closeT (refL lgL true) (s.data.toList.drop (k + 1))) := by rw [HBT.out, mkT_sl _ _ _ h47]
            have HM1 := Lib.hid hm1
            clear hm1 hle h33 h63 h47
            have hk1 : k + 1 ≤ s.size := hks
            by_cases hk1s : k + 1 < s.size
            · have dE1 : (((k : Int) + 1) == (s.size : Int)) = false := by rw [beq_eq_false_iff_ne]; omega
              have hJ1 : (k : Int) + 1 < (s.size : Int) := by omega
              have HBT1 := Lib.hid (drop_byte s (k + 1) hk1s)
              by_cases h62 : s[k + 1]'hk1s = 62
              · have d62 : (((s[k + 1]'hk1s).toNat : Int) == 62) = true := int_eq 62 rfl h62
                go_wp2_with fail
                refine (HLK.out _).mono ?_
                rintro e wz ⟨rfl, rfl⟩
                have hfin : mkT (refL lgL true) cd (s.data.toList.drop k) = ({}, [], 2) := by
                  rw [HM1.out, HBT1.out, closeT_gt _ _ h62]; rfl
                have HF := Lib.hid hfin
                have hR := HRA.out
                have hBb := HB0.out
                clear hfin
                have HRR := Lib.hid hR
                obtain ⟨z0, z1, z2, z3, z4, z5, z6, z7, z8, z9, z10, z11⟩ := TokAt.zero hR
                obtain ⟨y0, y1, y2, y3, y4, y5, y6, y7, y8, y9, y10, y11⟩ := TokAt.frz hR
                clear hR
                go_wp2_with fail
                obtain ⟨w3, hw3, h3, hb3, hbut⟩ := retW HRR.out hBb HR0.out (.int .i64 0) (.string ⟨#[]⟩) (.bool false) (.string ⟨#[]⟩) (.bool false) (.string ⟨#[]⟩) (.bool false) (.bool false) (.slice none 0 0) (.bool false) (.string ⟨#[]⟩) (.int .i32 0)
                rw [hw3]
                obtain ⟨r0, r1, r2, r3, r4, r5, r6, r7, r8, r9, r10, r11⟩ := h3.cells
                clear hw3
                refine bodyPost_ret (v := .tuple #[.agg #[.int .i64 0, .string ⟨#[]⟩, .bool false, .string ⟨#[]⟩, .bool false, .string ⟨#[]⟩, .bool false, .bool false, .slice none 0 0, .bool false, .string ⟨#[]⟩, .int .i32 0], .string ⟨#[]⟩, .int .i64 ((k : Int) + 2)]) (by simp [results, Tryz.results24, go_sem, r0, r1, r2, r3, r4, r5, r6, r7, r8, r9, r10, r11]) rfl ?_
                rw [HF.out, show ((k : Int) + 2) = ((k + 2 : Nat) : Int) by omega]
                exact mkR_chars w w3 hb3
              · have d62 : (((s[k + 1]'hk1s).toNat : Int) == 62) = false := int_ne 62 rfl h62
                have HLK1 := Lib.hid (fun W => HLE.out (s[k + 1]'hk1s) W)
                cases hl1 : leU (s[k + 1]'hk1s) with
                | true =>
                  rw [hl1] at HLK1
                  have hfin : mkT (refL lgL true) cd (s.data.toList.drop k) = ((tagT (refL lgL true) true (s.data.toList.drop (k + 1))).1, [], 1 + (tagT (refL lgL true) true (s.data.toList.drop (k + 1))).2.2) := by
                    rw [HM1.out, HBT1.out, closeT_let _ _ hl1]; rfl
                  have hD := fun W => qTag s ((k + 1 : Nat) : Int) true HS.out W
                  rw [clip_nat s (k + 1) hk1, tlS_nat s (k + 1) hk1, show ((k + 1 : Nat) : Int) = (k : Int) + 1 by omega] at hD
                  generalize tagT (refL lgL true) true (s.data.toList.drop (k + 1)) = X at hD hfin
                  obtain ⟨T', TB, n⟩ := X
                  unfold TagR at hD
                  obtain ⟨N, hN⟩ : ∃ N : Int, N = (((k + 1) + n : Nat) : Int) := ⟨_, rfl⟩
                  simp only [← hN] at hD
                  have HN := Lib.hid (show ((k + (1 + n) : Nat) : Int) = N by rw [hN] <;> omega)
                  have HF := Lib.hid hfin
                  have HD := Lib.hid hD
                  clear hfin hD hN
                  clear hl1 h62
                  go_wp2_with fail
                  refine (HLK.out _).mono ?_
                  rintro e wz ⟨rfl, rfl⟩
                  go_wp2_with fail
                  refine (HLK1.out _).mono ?_
                  rintro e wz ⟨rfl, rfl⟩
                  go_wp2_with fail
                  refine (HD.out _).mono ?_
                  rintro e w5 ⟨v, rfl, ht, hb5⟩
                  obtain ⟨k1, n1, hn1, p1, hp1, y1, hy1, q1, A1, pn1, pc1, sc1, d1, r1, rfl, -⟩ := ht.form
                  have hR := HRA.out.below hb5
                  have HB5 := Lib.hid (below_next HB0.out hb5)
                  have HTK := Lib.hid ht
                  clear ht hb5
                  have HG := Lib.hid (TokAt.hp (tokAt_new w5 #[.int .i64 k1, .string n1, .bool hn1, .string p1, .bool hp1, .string y1, .bool hy1, .bool q1, .slice A1 pn1 pc1, .bool sc1, .string d1, .int .i32 r1]))
                  have HRR := Lib.hid (TokAt.hp (hR.below (below_alloc (Below.refl _ w5) (.cells #[.int .i64 k1, .string n1, .bool hn1, .string p1, .bool hp1, .string y1, .bool hy1, .bool q1, .slice A1 pn1 pc1, .bool sc1, .string d1, .int .i32 r1] 38))))
                  clear hR
                  ((try go_simp); repeat (first | (refine wpList_load_row (by rfl) 38 _ rfl w5.heap.size rfl 38 _ (0, 0) _ HG.out Tryz.underlying38 rfl (by kernel_rfl) ?_) | (refine wpList_store_tok (by rfl) 38 _ _ rfl r #[.int .i64 k1, .string n1, .bool hn1, .string p1, .bool hp1, .string y1, .bool hy1, .bool q1, .slice A1 pn1 pc1, .bool sc1, .string d1, .int .i32 r1] rfl rfl 38 _ HRR.out (by kernel_rfl) rfl (oc12 _ _ _ _ _ _ _ _ _ _ _ _ _ _) ?_; intro w6 h6 b6; have H6 := Lib.hid h6; have B6 := Lib.hid b6; clear h6 b6) | go_values | go_skip | go_guarded | go_step | go_upon | go_back))
                  have hb7 := below_but (below_alloc HB5.out _) B6.out HR0.out
                  obtain ⟨e0, e1, e2, e3, e4, e5, e6, e7, e8, e9, e10, e11⟩ := TokAt.cells (show TokAt w6 r #[.int .i64 k1, .string n1, .bool hn1, .string p1, .bool hp1, .string y1, .bool hy1, .bool q1, .slice A1 pn1 pc1, .bool sc1, .string d1, .int .i32 r1] from H6.out)
                  refine bodyPost_ret (v := .tuple #[.agg #[.int .i64 k1, .string n1, .bool hn1, .string p1, .bool hp1, .string y1, .bool hy1, .bool q1, .slice A1 pn1 pc1, .bool sc1, .string d1, .int .i32 r1], .string ⟨#[]⟩, .int .i64 N]) (by simp [results, Tryz.results24, go_sem, e0, e1, e2, e3, e4, e5, e6, e7, e8, e9, e10, e11]) rfl ?_
                  rw [HF.out, ← HN.out]
                  exact ⟨_, rfl, tokRow_but (HTK.out.below (below_alloc (Below.refl _ w5) _)) HRR.out rfl B6.out, hb7⟩
                | false =>
                  rw [hl1] at HLK1
                  have hfin : mkT (refL lgL true) cd (s.data.toList.drop k) = ({ kind := 4, data := nulL (utL [62] (s.data.toList.drop (k + 1))).1 }, [], 1 + (utL [62] (s.data.toList.drop (k + 1))).2) := by
                    rw [HM1.out, HBT1.out, closeT_bog _ _ hl1 h62]; rfl
                  have HF := Lib.hid hfin
                  have HCO := Lib.hid (fun W => qBogus s ((k + 1 : Nat) : Int) (by have := HS.out; omega) W)
                  rw [clip_nat s (k + 1) hk1, tlS_nat s (k + 1) hk1, show ((k + 1 : Nat) : Int) = (k : Int) + 1 by omega] at HCO
                  generalize (utL [62] (s.data.toList.drop (k + 1))).2 = n at HCO HF
                  generalize nulL (utL [62] (s.data.toList.drop (k + 1))).1 = d at HCO HF
                  obtain ⟨D, hD⟩ : ∃ D, D = bl d := ⟨_, rfl⟩
                  have HD := Lib.hid hD
                  rw [← hD] at HCO
                  obtain ⟨N, hN⟩ : ∃ N : Int, N = (((k + 1) + n : Nat) : Int) := ⟨_, rfl⟩
                  have HN := Lib.hid hN
                  rw [← hN] at HCO
                  clear hfin hD hN
                  clear hl1 h62
                  go_wp2_with fail
                  refine (HLK.out _).mono ?_
                  rintro e wz ⟨rfl, rfl⟩
                  go_wp2_with fail
                  refine (HLK1.out _).mono ?_
                  rintro e wz ⟨rfl, rfl⟩
                  go_wp2_with fail
                  refine (HCO.out _).mono ?_
                  rintro e wz ⟨rfl, rfl⟩
                  have hR := HRA.out
                  have hBb := HB0.out
                  have HRR := Lib.hid hR
                  obtain ⟨z0, z1, z2, z3, z4, z5, z6, z7, z8, z9, z10, z11⟩ := TokAt.zero hR
                  obtain ⟨y0, y1, y2, y3, y4, y5, y6, y7, y8, y9, y10, y11⟩ := TokAt.frz hR
                  clear hR
                  go_wp2_with fail
                  obtain ⟨w3, hw3, h3, hb3, hbut⟩ := retW HRR.out hBb HR0.out (.int .i64 4) (.string ⟨#[]⟩) (.bool false) (.string ⟨#[]⟩) (.bool false) (.string ⟨#[]⟩) (.bool false) (.bool false) (.slice none 0 0) (.bool false) (.string D) (.int .i32 0)
                  rw [hw3]
                  obtain ⟨r0, r1, r2, r3, r4, r5, r6, r7, r8, r9, r10, r11⟩ := h3.cells
                  clear hw3
                  refine bodyPost_ret (v := .tuple #[.agg #[.int .i64 4, .string ⟨#[]⟩, .bool false, .string ⟨#[]⟩, .bool false, .string ⟨#[]⟩, .bool false, .bool false, .slice none 0 0, .bool false, .string D, .int .i32 0], .string ⟨#[]⟩, .int .i64 N]) (by simp [results, Tryz.results24, go_sem, r0, r1, r2, r3, r4, r5, r6, r7, r8, r9, r10, r11]) rfl ?_
                  rw [HF.out, HN.out, HD.out]
                  exact mkR_com' w w3 hb3 (by omega)
            · have dE1 : (((k : Int) + 1) == (s.size : Int)) = true := by rw [beq_iff_eq]; omega
              go_wp2_with fail
              refine (HLK.out _).mono ?_
              rintro e wz ⟨rfl, rfl⟩
              have hfin : mkT (refL lgL true) cd (s.data.toList.drop k) = ({}, [60, 47], 1) := by
                rw [HM1.out, drop_end s (k + 1) (by omega)]; rfl
              have HF := Lib.hid hfin
              have hR := HRA.out
              have hBb := HB0.out
              clear hfin
              have HRR := Lib.hid hR
              obtain ⟨z0, z1, z2, z3, z4, z5, z6, z7, z8, z9, z10, z11⟩ := TokAt.zero hR
              obtain ⟨y0, y1, y2, y3, y4, y5, y6, y7, y8, y9, y10, y11⟩ := TokAt.frz hR
              clear hR
              go_wp2_with fail
              obtain ⟨w3, hw3, h3, hb3, hbut⟩ := retW HRR.out hBb HR0.out (.int .i64 0) (.string ⟨#[]⟩) (.bool false) (.string ⟨#[]⟩) (.bool false) (.string ⟨#[]⟩) (.bool false) (.bool false) (.slice none 0 0) (.bool false) (.string ⟨#[]⟩) (.int .i32 0)
              rw [hw3]
              obtain ⟨r0, r1, r2, r3, r4, r5, r6, r7, r8, r9, r10, r11⟩ := h3.cells
              clear hw3
              refine bodyPost_ret (v := .tuple #[.agg #[.int .i64 0, .string ⟨#[]⟩, .bool false, .string ⟨#[]⟩, .bool false, .string ⟨#[]⟩, .bool false, .bool false, .slice none 0 0, .bool false, .string ⟨#[]⟩, .int .i32 0], .string ⟨#[60, 47]⟩, .int .i64 ((k : Int) + 1)]) (by simp [results, Tryz.results24, go_sem, r0, r1, r2, r3, r4, r5, r6, r7, r8, r9, r10, r11]) rfl ?_
              rw [HF.out, show ((k : Int) + 1) = ((k + 1 : Nat) : Int) by omega]
              exact mkR_chars w w3 hb3
          · have d47 : (((s[k]'hks).toNat : Int) == 47) = false := int_ne 47 rfl h47
            have e47 : (((s[k]'hks).toNat : Int) != 47) = true := by rw [bne, d47]; rfl
            go_wp2_with fail
            refine (HLK.out _).mono ?_
            rintro e wz ⟨rfl, rfl⟩
            have hfin : mkT (refL lgL true) cd (s.data.toList.drop k) = ({}, [60], 0) := by
              rw [HBT.out, mkT_no _ _ _ h33 hle h63 h47]
            have HF := Lib.hid hfin
            have hR := HRA.out
            have hBb := HB0.out
            clear hfin
            have HRR := Lib.hid hR
            obtain ⟨z0, z1, z2, z3, z4, z5, z6, z7, z8, z9, z10, z11⟩ := TokAt.zero hR
            obtain ⟨y0, y1, y2, y3, y4, y5, y6, y7, y8, y9, y10, y11⟩ := TokAt.frz hR
            clear hR
            go_wp2_with fail
            obtain ⟨w3, hw3, h3, hb3, hbut⟩ := retW HRR.out hBb HR0.out (.int .i64 0) (.string ⟨#[]⟩) (.bool false) (.string ⟨#[]⟩) (.bool false) (.string ⟨#[]⟩) (.bool false) (.bool false) (.slice none 0 0) (.bool false) (.string ⟨#[]⟩) (.int .i32 0)
            rw [hw3]
            obtain ⟨r0, r1, r2, r3, r4, r5, r6, r7, r8, r9, r10, r11⟩ := h3.cells
            clear hw3
            refine bodyPost_ret (v := .tuple #[.agg #[.int .i64 0, .string ⟨#[]⟩, .bool false, .string ⟨#[]⟩, .bool false, .string ⟨#[]⟩, .bool false, .bool false, .slice none 0 0, .bool false, .string ⟨#[]⟩, .int .i32 0], .string ⟨#[60]⟩, .int .i64 (k : Int)]) (by simp [results, Tryz.results24, go_sem, r0, r1, r2, r3, r4, r5, r6, r7, r8, r9, r10, r11]) rfl ?_
            rw [HF.out, show (k : Int) = ((k + 0 : Nat) : Int) by omega]
            exact mkR_chars w w3 hb3
  · have dE : ((k : Int) == (s.size : Int)) = true := by rw [beq_iff_eq]; omega
    have hfin : mkT (refL lgL true) cd (s.data.toList.drop k) = ({}, [60], 0) := by
      rw [drop_end s k (by omega)]; rfl
    have HF := Lib.hid hfin
    have hR := HRA.out
    have hBb := HB0.out
    clear hfin
    have HRR := Lib.hid hR
    obtain ⟨z0, z1, z2, z3, z4, z5, z6, z7, z8, z9, z10, z11⟩ := TokAt.zero hR
    obtain ⟨y0, y1, y2, y3, y4, y5, y6, y7, y8, y9, y10, y11⟩ := TokAt.frz hR
    clear hR
    go_wp2_with fail
    obtain ⟨w3, hw3, h3, hb3, hbut⟩ := retW HRR.out hBb HR0.out (.int .i64 0) (.string ⟨#[]⟩) (.bool false) (.string ⟨#[]⟩) (.bool false) (.string ⟨#[]⟩) (.bool false) (.bool false) (.slice none 0 0) (.bool false) (.string ⟨#[]⟩) (.int .i32 0)
    rw [hw3]
    obtain ⟨r0, r1, r2, r3, r4, r5, r6, r7, r8, r9, r10, r11⟩ := h3.cells
    clear hw3
    refine bodyPost_ret (v := .tuple #[.agg #[.int .i64 0, .string ⟨#[]⟩, .bool false, .string ⟨#[]⟩, .bool false, .string ⟨#[]⟩, .bool false, .bool false, .slice none 0 0, .bool false, .string ⟨#[]⟩, .int .i32 0], .string ⟨#[60]⟩, .int .i64 (k : Int)]) (by simp [results, Tryz.results24, go_sem, r0, r1, r2, r3, r4, r5, r6, r7, r8, r9, r10, r11]) rfl ?_
    rw [HF.out, show (k : Int) = ((k + 0 : Nat) : Int) by omega]
    exact mkR_chars w w3 hb3
end Go.Proofs.YtnfccckodgknjaaGreatDoor

namespace Go.Proofs.YtnfccckodgknjaaGreatDoor
open Go.RowKit Go.Shelf Go.Lib
set_option maxHeartbeats 4000000
set_option maxRecDepth 100000


theorem lawDoctypes (s : ByteArray) (a : Int) (m : Int) (w : World) (hm : w.cell? ⟨1, 0, none⟩ = some (.int .i64 m)) (hc : CtlW w) :
    Calls Tryz.prog 4 #[.string s, .int .i64 a] w fun e w' => e = .returned (.bool true) ∧ Below w.heap.size w w' := by
  have HM := Lib.hid hm
  have HC := Lib.hid hc
  have HS1 := Lib.hid (small02 s)
  have HK := Lib.hid (known02 m w hc hm)
  clear hm hc
  by_cases h1 : s.size ≤ 4096
  · rw [decide_eq_true h1] at HS1
    have H1 := Lib.hid h1
    have D1 := Lib.hid (fun W hm => docM s a m (by omega) W hm)
    have D2 := Lib.hid (fun W => qDoctype s a (by omega) W)
    clear h1
    generalize docT (tlS s a) = X at D1 D2
    generalize clip s a = k at D1 D2
    obtain ⟨T, n⟩ := X
    obtain ⟨NN, hNN⟩ : ∃ N : Int, N = ((k + n : Nat) : Int) := ⟨_, rfl⟩
    unfold DocR at D1 D2
    simp only [← hNN] at D1 D2
    have tn : (NN == NN) = true := by simp
    have tn2 : (NN != NN) = false := by simp
    clear hNN
    go_enter Tryz.func4, Tryz.ntmps4
    go_wp2_with fail
    refine (HS1.out w).mono ?_
    rintro e w1 ⟨rfl, rfl⟩
    go_wp2_with fail
    refine (D1.out w1 HM.out).mono ?_
    rintro e w5 ⟨v, rfl, ht, hs5⟩
    obtain ⟨k1, n1, hn1, p1, hp1, y1, hy1, q1, A1, pn1, pc1, sc1, d1, r1, rfl, -⟩ := ht.form
    have HT5 := Lib.hid ht
    have HB5 := Lib.hid hs5
    clear ht hs5
    go_wp2_with fail
    generalize hW6 : World.alloc _ _ = w6
    have hx6 : TokAt w6 w5.heap.size #[.int .i64 k1, .string n1, .bool hn1, .string p1, .bool hp1, .string y1, .bool hy1, .bool q1, .slice A1 pn1 pc1, .bool sc1, .string d1, .int .i32 r1] := by rw [← hW6]; exact tokAt_new w5 _
    have hb6 : Below w1.heap.size w1 w6 := by rw [← hW6]; exact below_alloc HB5.out _
    have hs6 : Below w5.heap.size w5 w6 := by rw [← hW6]; exact below_alloc (Below.refl _ _) _
    have hg1 : w1.heap.size ≤ w5.heap.size := HB5.out.size
    have HX6 := Lib.hid hx6
    have HB6 := Lib.hid hb6
    have HR6 := Lib.hid (HT5.out.below hs6)
    clear hW6 hx6 hb6 hs6 HT5
    generalize w5.heap.size = g1 at HX6 hg1 ⊢
    have HG1 := Lib.hid hg1
    clear hg1
    refine (D2.out w6).mono ?_
    rintro e w7 ⟨v, rfl, ht, hs7⟩
    obtain ⟨k2, n2, hn2, p2, hp2, y2, hy2, q2, A2, pn2, pc2, sc2, d2, r2, rfl, -⟩ := ht.form
    have HX7 := Lib.hid (HX6.out.below hs7)
    have HB7 := Lib.hid (below_next HB6.out hs7)
    have HT7 := Lib.hid ht
    have HR7 := Lib.hid (HR6.out.below hs7)
    have HGT := Lib.hid (TokAt.hp (HX7.out.below (below_alloc (Below.refl _ w7) (.cells #[.int .i64 k2, .string n2, .bool hn2, .string p2, .bool hp2, .string y2, .bool hy2, .bool q2, .slice A2 pn2 pc2, .bool sc2, .string d2, .int .i32 r2] 38))))
    have HGU := Lib.hid (TokAt.hp (tokAt_new w7 #[.int .i64 k2, .string n2, .bool hn2, .string p2, .bool hp2, .string y2, .bool hy2, .bool q2, .slice A2 pn2 pc2, .bool sc2, .string d2, .int .i32 r2]))
    clear ht hs7 HX6 HR6
    ((try go_simp); repeat (first | (refine wpList_load_row (by rfl) 38 _ rfl g1 rfl 38 _ (0, 0) _ HGT.out Tryz.underlying38 rfl (by kernel_rfl) ?_) | (refine wpList_load_row (by rfl) 38 _ rfl w7.heap.size rfl 38 _ (0, 0) _ HGU.out Tryz.underlying38 rfl (by kernel_rfl) ?_) | go_values | go_skip | go_guarded | go_step | go_upon | go_back))
    generalize hW8 : World.alloc _ _ = w8
    have hs8 : Below w7.heap.size w7 w8 := by rw [← hW8]; exact below_alloc (Below.refl _ _) _
    have hb8 : Below w1.heap.size w1 w8 := by rw [← hW8]; exact below_alloc HB7.out _
    have hx8 : TokAt w8 g1 #[.int .i64 k1, .string n1, .bool hn1, .string p1, .bool hp1, .string y1, .bool hy1, .bool q1, .slice A1 pn1 pc1, .bool sc1, .string d1, .int .i32 r1] := by rw [← hW8]; exact HGT.out
    have hu8 : TokAt w8 w7.heap.size #[.int .i64 k2, .string n2, .bool hn2, .string p2, .bool hp2, .string y2, .bool hy2, .bool q2, .slice A2 pn2 pc2, .bool sc2, .string d2, .int .i32 r2] := by rw [← hW8]; exact HGU.out
    have HX8 := Lib.hid hx8
    have HU8 := Lib.hid hu8
    have HNE := Lib.hid (show g1 ≠ w7.heap.size from Nat.ne_of_lt HX7.out.lt)
    have HG2 := Lib.hid (show w1.heap.size ≤ w7.heap.size from HB7.out.size)
    clear hW8 HGT HGU hx8 hu8
    refine (sameTok w8 (HR7.out.below hs8) (HT7.out.below hs8)).mono ?_
    rintro e w9 ⟨rfl, hs9⟩
    have hb9 := below_next hb8 hs9
    have HB9 := Lib.hid hb9
    have HX9 := Lib.hid (HX8.out.below hs9)
    have HU9 := Lib.hid (HU8.out.below hs9)
    generalize w7.heap.size = g2 at HU9 HNE HG2
    clear hs8 hb8 hs9 hb9 HX8 HU8 HT7 HR7 HX7 HB7
    have HKn := Lib.hid (known02 m w9 (HC.out.below HB9.out) (carry HM.out HB9.out))
    go_wp2_with fail
    refine HKn.out.mono ?_
    rintro e w20 ⟨rfl, hs⟩
    go_wp2_with fail
    go_ret
    exact ⟨rfl, below_next HB9.out hs⟩
  · rw [decide_eq_false h1] at HS1
    clear h1
    go_enter Tryz.func4, Tryz.ntmps4
    go_wp2_with fail
    refine (HS1.out w).mono ?_
    rintro e w1 ⟨rfl, rfl⟩
    go_wp2_with fail
    refine HK.out.mono ?_
    rintro e w4 ⟨rfl, hb⟩
    go_wp2_with fail
    go_ret
    exact ⟨rfl, hb⟩
  end Go.Proofs.YtnfccckodgknjaaGreatDoor

namespace Go.Proofs.YtnfccckodgknjaaGreatDoor
open Go.RowKit Go.Shelf Go.Lib
set_option maxHeartbeats 4000000
set_option maxRecDepth 100000


theorem lawMarkup (s : ByteArray) (a : Int) (cd : Bool) (m : Int) (w : World) (hm : w.cell? ⟨1, 0, none⟩ = some (.int .i64 m)) (hc : CtlW w) :
    Calls Tryz.prog 5 #[.string s, .int .i64 a, .bool cd] w fun e w' => e = .returned (.bool true) ∧ Below w.heap.size w w' := by
  have HM := Lib.hid hm
  have HC := Lib.hid hc
  have HS1 := Lib.hid (small02 s)
  have HK := Lib.hid (known02 m w hc hm)
  clear hm hc
  by_cases h1 : s.size ≤ 4096
  · rw [decide_eq_true h1] at HS1
    have H1 := Lib.hid h1
    have M1 := Lib.hid (fun W hc hm => markupM lgL (Lib.hid lgOk) s a cd m (by omega) W hc hm)
    have M2 := Lib.hid (fun W => qMarkup s a cd (by omega) W)
    have D1 := Lib.hid (fun W hm => declM lgL s a cd m (by omega) W hm)
    have D2 := Lib.hid (fun W => qDecl s a cd (by omega) W)
    clear h1
    generalize mkT (refL lgL true) cd (tlS s a) = X at M1 M2
    generalize declT (refL lgL true) cd (tlS s a) = Y at D1 D2
    generalize clip s a = k at M1 M2 D1 D2
    obtain ⟨T, c, n⟩ := X
    obtain ⟨U, c', n'⟩ := Y
    obtain ⟨NN, hNN⟩ : ∃ N : Int, N = ((k + n : Nat) : Int) := ⟨_, rfl⟩
    obtain ⟨N2, hN2⟩ : ∃ N : Int, N = ((k + n' : Nat) : Int) := ⟨_, rfl⟩
    obtain ⟨CC, hCC⟩ : ∃ C, C = bl c := ⟨_, rfl⟩
    obtain ⟨C2, hC2⟩ : ∃ C, C = bl c' := ⟨_, rfl⟩
    unfold MkR at M1 M2 D1 D2
    simp only [← hNN, ← hN2, ← hCC, ← hC2] at M1 M2 D1 D2
    have tn : (NN == NN) = true := by simp
    have tn2 : (NN != NN) = false := by simp
    have sn : (N2 == N2) = true := by simp
    have sn2 : (N2 != N2) = false := by simp
    have tc : (CC.toList == CC.toList) = true := by simp
    have tc2 : (CC.toList != CC.toList) = false := by simp
    have sc : (C2.toList == C2.toList) = true := by simp
    have sc2 : (C2.toList != C2.toList) = false := by simp
    clear hNN hN2 hCC hC2
    go_enter Tryz.func5, Tryz.ntmps5
    go_wp2_with fail
    refine (HS1.out w).mono ?_
    rintro e w1 ⟨rfl, rfl⟩
    go_wp2_with fail
    refine (M1.out w1 HC.out HM.out).mono ?_
    rintro e w5 ⟨v, rfl, ht, hs5⟩
    obtain ⟨k1, n1, hn1, p1, hp1, y1, hy1, q1, A1, pn1, pc1, sc1, d1, r1, rfl, -⟩ := ht.form
    have HT5 := Lib.hid ht
    have HB5 := Lib.hid hs5
    clear ht hs5
    go_wp2_with fail
    generalize hW6 : World.alloc _ _ = w6
    have hx6 : TokAt w6 w5.heap.size #[.int .i64 k1, .string n1, .bool hn1, .string p1, .bool hp1, .string y1, .bool hy1, .bool q1, .slice A1 pn1 pc1, .bool sc1, .string d1, .int .i32 r1] := by rw [← hW6]; exact tokAt_new w5 _
    have hb6 : Below w1.heap.size w1 w6 := by rw [← hW6]; exact below_alloc HB5.out _
    have hs6 : Below w5.heap.size w5 w6 := by rw [← hW6]; exact below_alloc (Below.refl _ _) _
    have hg1 : w1.heap.size ≤ w5.heap.size := HB5.out.size
    have HX6 := Lib.hid hx6
    have HB6 := Lib.hid hb6
    have HR6 := Lib.hid (HT5.out.below hs6)
    clear hW6 hx6 hb6 hs6 HT5
    generalize w5.heap.size = g1 at HX6 hg1 ⊢
    have HG1 := Lib.hid hg1
    clear hg1
    refine (M2.out w6).mono ?_
    rintro e w7 ⟨v, rfl, ht, hs7⟩
    obtain ⟨k2, n2, hn2, p2, hp2, y2, hy2, q2, A2, pn2, pc2, sc2, d2, r2, rfl, -⟩ := ht.form
    have HX7 := Lib.hid (HX6.out.below hs7)
    have HB7 := Lib.hid (below_next HB6.out hs7)
    have HT7 := Lib.hid ht
    have HR7 := Lib.hid (HR6.out.below hs7)
    have HGT := Lib.hid (TokAt.hp (HX7.out.below (below_alloc (Below.refl _ w7) (.cells #[.int .i64 k2, .string n2, .bool hn2, .string p2, .bool hp2, .string y2, .bool hy2, .bool q2, .slice A2 pn2 pc2, .bool sc2, .string d2, .int .i32 r2] 38))))
    have HGU := Lib.hid (TokAt.hp (tokAt_new w7 #[.int .i64 k2, .string n2, .bool hn2, .string p2, .bool hp2, .string y2, .bool hy2, .bool q2, .slice A2 pn2 pc2, .bool sc2, .string d2, .int .i32 r2]))
    clear ht hs7 HX6 HR6
    ((try go_simp); repeat (first | (refine wpList_load_row (by rfl) 38 _ rfl g1 rfl 38 _ (0, 0) _ HGT.out Tryz.underlying38 rfl (by kernel_rfl) ?_) | (refine wpList_load_row (by rfl) 38 _ rfl w7.heap.size rfl 38 _ (0, 0) _ HGU.out Tryz.underlying38 rfl (by kernel_rfl) ?_) | go_values | go_skip | go_guarded | go_step | go_upon | go_back))
    generalize hW8 : World.alloc _ _ = w8
    have hs8 : Below w7.heap.size w7 w8 := by rw [← hW8]; exact below_alloc (Below.refl _ _) _
    have hb8 : Below w1.heap.size w1 w8 := by rw [← hW8]; exact below_alloc HB7.out _
    have hx8 : TokAt w8 g1 #[.int .i64 k1, .string n1, .bool hn1, .string p1, .bool hp1, .string y1, .bool hy1, .bool q1, .slice A1 pn1 pc1, .bool sc1, .string d1, .int .i32 r1] := by rw [← hW8]; exact HGT.out
    have hu8 : TokAt w8 w7.heap.size #[.int .i64 k2, .string n2, .bool hn2, .string p2, .bool hp2, .string y2, .bool hy2, .bool q2, .slice A2 pn2 pc2, .bool sc2, .string d2, .int .i32 r2] := by rw [← hW8]; exact HGU.out
    have HX8 := Lib.hid hx8
    have HU8 := Lib.hid hu8
    have HNE := Lib.hid (show g1 ≠ w7.heap.size from Nat.ne_of_lt HX7.out.lt)
    have HG2 := Lib.hid (show w1.heap.size ≤ w7.heap.size from HB7.out.size)
    clear hW8 HGT HGU hx8 hu8
    refine (sameTok w8 (HR7.out.below hs8) (HT7.out.below hs8)).mono ?_
    rintro e w9 ⟨rfl, hs9⟩
    have hb9 := below_next hb8 hs9
    have HB9 := Lib.hid hb9
    have HX9 := Lib.hid (HX8.out.below hs9)
    have HU9 := Lib.hid (HU8.out.below hs9)
    generalize w7.heap.size = g2 at HU9 HNE HG2
    clear hs8 hb8 hs9 hb9 HX8 HU8 HT7 HR7 HX7 HB7
    go_wp2_with fail
    refine (D1.out w9 (carry HM.out HB9.out)).mono ?_
    rintro e w10 ⟨v, rfl, ht, hs10⟩
    obtain ⟨k3, n3, hn3, p3, hp3, y3, hy3, q3, A3, pn3, pc3, sc3, d3, r3, rfl, -⟩ := ht.form
    have HT10 := Lib.hid ht
    have HX10 := Lib.hid (TokAt.hp (HX9.out.below hs10))
    have HU10 := Lib.hid (TokAt.hp (HU9.out.below hs10))
    have HB10 := Lib.hid (below_next HB9.out hs10)
    clear ht hs10
    ((try go_simp); repeat (first | (refine wpList_store_tok (by rfl) 38 _ _ rfl g1 #[.int .i64 k3, .string n3, .bool hn3, .string p3, .bool hp3, .string y3, .bool hy3, .bool q3, .slice A3 pn3 pc3, .bool sc3, .string d3, .int .i32 r3] rfl rfl 38 _ HX10.out (by kernel_rfl) rfl (oc12 _ _ _ _ _ _ _ _ _ _ _ _ _ _) ?_; intro w11 h11 b11; have H11 := Lib.hid h11; have B11 := Lib.hid b11; clear h11 b11) | go_values | go_skip | go_guarded | go_step | go_upon | go_back))
    have HT11 := Lib.hid (tokRow_but HT10.out HX10.out rfl B11.out)
    have HB11 := Lib.hid (below_but HB10.out B11.out HG1.out)
    have HU11 := Lib.hid (TokAt.but (show TokAt w10 g2 #[.int .i64 k2, .string n2, .bool hn2, .string p2, .bool hp2, .string y2, .bool hy2, .bool q2, .slice A2 pn2 pc2, .bool sc2, .string d2, .int .i32 r2] from HU10.out) B11.out (Ne.symm HNE.out))
    refine (D2.out w11).mono ?_
    rintro e w12 ⟨v, rfl, ht, hs12⟩
    obtain ⟨k4, n4, hn4, p4, hp4, y4, hy4, q4, A4, pn4, pc4, sc4, d4, r4, rfl, -⟩ := ht.form
    have HT12 := Lib.hid ht
    have HS12 := Lib.hid (HT11.out.below hs12)
    have HX12 := Lib.hid (show TokAt w12 g1 #[.int .i64 k3, .string n3, .bool hn3, .string p3, .bool hp3, .string y3, .bool hy3, .bool q3, .slice A3 pn3 pc3, .bool sc3, .string d3, .int .i32 r3] from TokAt.below (show TokAt w11 g1 #[.int .i64 k3, .string n3, .bool hn3, .string p3, .bool hp3, .string y3, .bool hy3, .bool q3, .slice A3 pn3 pc3, .bool sc3, .string d3, .int .i32 r3] from H11.out) hs12)
    have HU12 := Lib.hid (TokAt.hp (HU11.out.below hs12))
    have HB12 := Lib.hid (below_next HB11.out hs12)
    clear ht hs12
    ((try go_simp); repeat (first | (refine wpList_store_tok (by rfl) 38 _ _ rfl g2 #[.int .i64 k4, .string n4, .bool hn4, .string p4, .bool hp4, .string y4, .bool hy4, .bool q4, .slice A4 pn4 pc4, .bool sc4, .string d4, .int .i32 r4] rfl rfl 38 _ HU12.out (by kernel_rfl) rfl (oc12 _ _ _ _ _ _ _ _ _ _ _ _ _ _) ?_; intro w13 h13 b13; have H13 := Lib.hid h13; have B13 := Lib.hid b13; clear h13 b13) | (refine wpList_load_row (by rfl) 38 _ rfl g1 rfl 38 _ (0, 0) _ (TokAt.hp (TokAt.but HX12.out B13.out HNE.out)) Tryz.underlying38 rfl (by kernel_rfl) ?_) | (refine wpList_load_row (by rfl) 38 _ rfl g2 rfl 38 _ (0, 0) _ H13.out Tryz.underlying38 rfl (by kernel_rfl) ?_) | go_values | go_skip | go_guarded | go_step | go_upon | go_back))
    have HT13 := Lib.hid (tokRow_but HT12.out HU12.out rfl B13.out)
    have HS13 := Lib.hid (tokRow_but HS12.out HU12.out rfl B13.out)
    have HB13 := Lib.hid (below_but HB12.out B13.out HG2.out)
    refine (sameTok w13 HS13.out HT13.out).mono ?_
    rintro e w14 ⟨rfl, hs14⟩
    have HB14 := Lib.hid (below_next HB13.out hs14)
    clear hs14
    have HKn := Lib.hid (known02 m w14 (HC.out.below HB14.out) (carry HM.out HB14.out))
    go_wp2_with fail
    refine HKn.out.mono ?_
    rintro e w20 ⟨rfl, hs⟩
    go_wp2_with fail
    go_ret
    exact ⟨rfl, below_next HB14.out hs⟩
  · rw [decide_eq_false h1] at HS1
    clear h1
    go_enter Tryz.func5, Tryz.ntmps5
    go_wp2_with fail
    refine (HS1.out w).mono ?_
    rintro e w1 ⟨rfl, rfl⟩
    go_wp2_with fail
    refine HK.out.mono ?_
    rintro e w4 ⟨rfl, hb⟩
    go_wp2_with fail
    go_ret
    exact ⟨rfl, hb⟩
  end Go.Proofs.YtnfccckodgknjaaGreatDoor
