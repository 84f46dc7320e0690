/-
  The program's readers of what follows "<", "</" and "<!".
  The document's reader of tags.
  The document's reader of comments.
-/
import Derived.Test.YtnfccckodgknjaaGreatDoorYM
import Derived.Test.YtnfccckodgknjaaGreatDoorY39
import Derived.Deep.RegionHeld3
import Derived.Deep.RegionWith
import Derived.Test.YtnfccckodgknjaaGreatDoorY48
import Derived.Test.YtnfccckodgknjaaGreatDoorY32
import Derived.Test.YtnfccckodgknjaaGreatDoorY38
namespace Go.Proofs.YtnfccckodgknjaaGreatDoor
open Go.RowKit Go.Shelf Go.Lib
set_option maxHeartbeats 4000000
set_option maxRecDepth 100000

theorem isQuestion (r : Int) (w : World) : Calls Tryz.prog 78 #[.int .i32 r] w fun e w' => e = .returned (.bool (decide (r = 63))) ∧ Below w.heap.size w w' := by
  go_enter Tryz.func78, Tryz.ntmps78
  go_wp2
  go_ret
  exact ⟨ret_bool (by rw [Bool.eq_iff_iff]; simp), by (repeat' (first | (with_reducible exact Below.refl _ _) | (with_reducible assumption) | (with_reducible refine below_alloc ?_ _) | (with_reducible refine Below.drew ?_) | (with_reducible refine _root_.Go.below_drewN ?_ _) | (with_reducible refine Below.setCell ?_ ?_ _) | go_size | (refine below_next ?_ (by assumption))))⟩
theorem foldedE (b : Nat) (x : Value) (T : TypeId) (s p : ByteArray) (k : Nat) (hp : lowL p.data.toList = p.data.toList) (hk : k ≤ s.size) (hs : s.size ≤ 1000000000) (w : World) (h : At w b #[.string s, x] T s k) :
    Calls Tryz.prog 83 #[.pointer (some ⟨b, 0, none⟩), .string p] w fun e w' =>
      (e = .returned (.bool true) ∧ lowL ((s.data.toList.drop k).take p.size) = p.data.toList ∧ k + p.size ≤ s.size ∧ At w' b #[.string s, .int .i64 ((k + p.size : Nat) : Int)] T s (k + p.size) ∧ But b w w') ∨
      (e = .returned (.bool false) ∧ lowL ((s.data.toList.drop k).take p.size) ≠ p.data.toList ∧ At w' b #[.string s, x] T s k ∧ But b w w') := by
  refine (curFoldedH foldB (fun a p w ha => equalFold a p (by unfold maxLen; omega) w) b _ _ s p k hk hs w h).mono ?_
  have hx : ((s.extract k s.size).extract 0 p.size).data.toList = (s.data.toList.drop k).take p.size := by
    rw [Lib.extract_data, ext_drop]; simp
  have hf : foldB ((s.extract k s.size).extract 0 p.size) p = (lowL ((s.data.toList.drop k).take p.size) == p.data.toList) := by
    unfold foldB
    rw [List.map_congr_left fun b _ => lowU_low' b, List.map_congr_left fun b _ => lowU_low' b, hx]
    show (lowL _ == lowL p.data.toList) = _
    rw [hp]
  rw [hf]
  rintro e w' (⟨rfl, h1, h2, h3, h4⟩ | ⟨rfl, h2, h3, h4⟩)
  · exact .inl ⟨rfl, by simpa using h2, h1, h3, h4⟩
  · refine .inr ⟨rfl, ?_, h3, h4⟩
    rcases h2 with h2 | h2
    · intro e
      have := congrArg List.length e
      simp only [lowL, List.length_map, List.length_take, List.length_drop, size_list] at this
      omega
    · simpa using h2

theorem mkR_com {k o : Nat} {d : List UInt8} (w w' : World) (hb : Below w.heap.size w w') : MkR k ({ kind := 4, data := d }, [], o) w (.returned (.tuple #[.agg #[.int .i64 4, .string ⟨#[]⟩, .bool false, .string ⟨#[]⟩, .bool false, .string ⟨#[]⟩, .bool false, .bool false, .slice none 0 0, .bool false, .string (bl d), .int .i32 0], .string ⟨#[]⟩, .int .i64 ((k + o : Nat) : Int)])) w' :=
  ⟨_, rfl, tokRow_plain w' { kind := 4, data := d } rfl, hb⟩
theorem mkR_com' {k o N : Nat} {d : List UInt8} (w w' : World) (hb : Below w.heap.size w w') (h : k + o = N) : MkR k ({ kind := 4, data := d }, [], o) w (.returned (.tuple #[.agg #[.int .i64 4, .string ⟨#[]⟩, .bool false, .string ⟨#[]⟩, .bool false, .string ⟨#[]⟩, .bool false, .bool false, .slice none 0 0, .bool false, .string (bl d), .int .i32 0], .string ⟨#[]⟩, .int .i64 (N : Int)])) w' := by
  subst h
  exact mkR_com w w' hb
theorem mkR_chars {k o : Nat} {c : List UInt8} (w w' : World) (hb : Below w.heap.size w w') : MkR k ({}, c, o) w (.returned (.tuple #[.agg #[.int .i64 0, .string ⟨#[]⟩, .bool false, .string ⟨#[]⟩, .bool false, .string ⟨#[]⟩, .bool false, .bool false, .slice none 0 0, .bool false, .string ⟨#[]⟩, .int .i32 0], .string (bl c), .int .i64 ((k + o : Nat) : Int)])) w' :=
  ⟨_, rfl, tokRow_plain w' {} rfl, hb⟩

/-- bogus: a comment up to the next ">". -/
theorem bogusM (b : Nat) (s : ByteArray) (k : Nat) (hk : k ≤ s.size) (hs : s.size ≤ 1000000) (m : Int) (w : World) (hm : w.cell? ⟨1, 0, none⟩ = some (.int .i64 m)) (R : RefF) (h : At w b #[.string s, .int .i64 k] 79 s k) :
    Calls Tryz.prog 79 #[.pointer (some ⟨b, 0, none⟩)] w (MkR k (goT R (s.data.toList.drop k) (bogZ (s.data.toList.drop k))) w) := by
  have hB := fun W hm => bogusC s k m (by omega) W hm
  rw [clip_nat s k hk, tlS_nat s k hk] at hB
  show Calls _ _ _ _ (MkR k ({ kind := 4, data := nulL (utL [62] (s.data.toList.drop k)).1 }, [], (utL [62] (s.data.toList.drop k)).2) w)
  generalize (utL [62] (s.data.toList.drop k)).2 = n at hB ⊢
  generalize nulL (utL [62] (s.data.toList.drop k)).1 = d at hB ⊢
  obtain ⟨D, hD⟩ : ∃ D, D = bl d := ⟨_, rfl⟩
  have HD := Lib.hid hD
  rw [← hD] at hB
  obtain ⟨N, hN⟩ : ∃ N : Int, N = ((k + n : Nat) : Int) := ⟨_, rfl⟩
  have HN := Lib.hid hN
  rw [← hN] at hB
  have hR0 : TokAt (w.alloc (.cells #[.int .i64 0, .string ⟨#[]⟩, .bool false, .string ⟨#[]⟩, .bool false, .string ⟨#[]⟩, .bool false, .bool false, .slice none 0 0, .bool false, .string ⟨#[]⟩, .int .i32 0] 38)) w.heap.size tok0 := tokAt_new w _
  have hB0 : Below w.heap.size w (w.alloc (.cells #[.int .i64 0, .string ⟨#[]⟩, .bool false, .string ⟨#[]⟩, .bool false, .string ⟨#[]⟩, .bool false, .bool false, .slice none 0 0, .bool false, .string ⟨#[]⟩, .int .i32 0] 38)) := below_alloc (Below.refl _ _) _
  have hat := h.below hB0
  have hm0 := carry hm hB0
  obtain ⟨r, hr⟩ : ∃ r, r = w.heap.size := ⟨_, rfl⟩
  obtain ⟨W, hW⟩ : ∃ W, w.alloc (.cells #[.int .i64 0, .string ⟨#[]⟩, .bool false, .string ⟨#[]⟩, .bool false, .string ⟨#[]⟩, .bool false, .bool false, .slice none 0 0, .bool false, .string ⟨#[]⟩, .int .i32 0] 38) = W := ⟨_, rfl⟩
  rw [hW] at hR0 hB0 hat hm0
  rw [← hr] at hR0
  have hb0 := hat.lt
  have h0 := hat.cell0
  have h1 := hat.cell1
  have HM := Lib.hid hm0
  have HRA := Lib.hid hR0
  have HB0 := Lib.hid hB0
  have HR0 := Lib.hid (show w.heap.size ≤ r by omega)
  have HRE := Lib.hid hr
  have HWE := Lib.hid hW
  have HBO : Hid (∀ W', (W'.cell? ⟨b, 0, none⟩ = some (.string s) ∧ W'.cell? ⟨b, 1, none⟩ = some (.int .i64 k) ∧ b < W'.heap.size ∧ Below W.heap.size W W') → Calls Tryz.prog 84 #[.string s, .int .i64 k] W' fun e w' => e = .returned (.tuple #[.string D, .int .i64 N]) ∧ w'.cell? ⟨b, 0, none⟩ = some (.string s) ∧ w'.cell? ⟨b, 1, none⟩ = some (.int .i64 k) ∧ b < w'.heap.size ∧ Below W.heap.size W w') := Lib.hid (by
    rintro W' ⟨y0, y1, y2, y3⟩
    refine (hB W' (carry hm0 y3)).mono ?_
    rintro e w' ⟨rfl, hb⟩
    exact ⟨rfl, (hb.cell (p := ⟨b, 0, none⟩) y2).trans y0, (hb.cell (p := ⟨b, 1, none⟩) y2).trans y1, Nat.lt_of_lt_of_le y2 hb.size, below_next y3 hb⟩)
  clear hm hk hs h hD hN hB hR0 hB0 hat hm0 hW hr
  go_enter Tryz.func79, Tryz.ntmps79
  go_wp2_with fail
  rw [HWE.out, ← HRE.out]
  go_region_held3 (fun w' => w'.cell? ⟨b, 0, none⟩ = some (.string s) ∧ w'.cell? ⟨b, 1, none⟩ = some (.int .i64 k) ∧ b < w'.heap.size ∧ Below W.heap.size W w')
    (first | exact ⟨h0, h1, hb0, Below.drew (Below.refl _ _)⟩ | exact ⟨h0, h1, hb0, Below.refl _ _⟩ | exact ⟨by assumption, by assumption, by assumption, by assumption⟩ | go_keep)
    (first | (go_at_call 84; refine (HBO.out _ (by first | assumption | exact ⟨by assumption, by assumption, by assumption, by first | assumption | exact Below.drew (by assumption)⟩)).mono ?_; rintro e wx ⟨rfl, d0, d1, d2, d3⟩))
  all_goals
    have hR := HRA.out.below d3
    have HRR := Lib.hid hR
    obtain ⟨z0, z1, z2, z3, z4, z5, z6, z7, z8, z9, z10, z11⟩ := TokAt.zero hR
    obtain ⟨y0, y1, y2, y3, y4, y5, y6, y7, y8, y9, y10, y11⟩ := TokAt.frz hR
    clear hR
    go_wp2_with fail
    obtain ⟨w3, hw3, h3, hb3, hbut⟩ := retW HRR.out (below_next HB0.out d3) HR0.out (.int .i64 4) (.string ⟨#[]⟩) (.bool false) (.string ⟨#[]⟩) (.bool false) (.string ⟨#[]⟩) (.bool false) (.bool false) (.slice none 0 0) (.bool false) (.string D) (.int .i32 0)
    rw [hw3]
    obtain ⟨r0, r1, r2, r3, r4, r5, r6, r7, r8, r9, r10, r11⟩ := h3.cells
    clear hw3
    refine bodyPost_ret (v := .tuple #[.agg #[.int .i64 4, .string ⟨#[]⟩, .bool false, .string ⟨#[]⟩, .bool false, .string ⟨#[]⟩, .bool false, .bool false, .slice none 0 0, .bool false, .string D, .int .i32 0], .string ⟨#[]⟩, .int .i64 N]) (by simp [results, Tryz.results79, go_sem, r0, r1, r2, r3, r4, r5, r6, r7, r8, r9, r10, r11]) rfl ?_
    rw [HN.out, HD.out]
    exact mkR_com w w3 hb3
theorem declM (lg : List UInt8 → Nat × List UInt8) (s : ByteArray) (a : Int) (cd : Bool) (m : Int) (hs : s.size ≤ 1000000) (w : World) (hm : w.cell? ⟨1, 0, none⟩ = some (.int .i64 m)) :
    Calls Tryz.prog 25 #[.string s, .int .i64 a, .bool cd] w (MkR (clip s a) (declT (refL lg true) cd (tlS s a)) w) := by
  have HC := Lib.hid (fun W => cursorAt s a (by unfold maxLen; omega) W)
  have hk := clip_le s a
  unfold tlS
  generalize clip s a = k at HC hk ⊢
  have hR0 : TokAt (w.alloc (.cells #[.int .i64 0, .string ⟨#[]⟩, .bool false, .string ⟨#[]⟩, .bool false, .string ⟨#[]⟩, .bool false, .bool false, .slice none 0 0, .bool false, .string ⟨#[]⟩, .int .i32 0] 38)) w.heap.size tok0 := tokAt_new w _
  have hB0 : Below w.heap.size w (w.alloc (.cells #[.int .i64 0, .string ⟨#[]⟩, .bool false, .string ⟨#[]⟩, .bool false, .string ⟨#[]⟩, .bool false, .bool false, .slice none 0 0, .bool false, .string ⟨#[]⟩, .int .i32 0] 38)) := below_alloc (Below.refl _ _) _
  obtain ⟨r, hr⟩ : ∃ r, r = w.heap.size := ⟨_, rfl⟩
  obtain ⟨W, hW⟩ : ∃ W, w.alloc (.cells #[.int .i64 0, .string ⟨#[]⟩, .bool false, .string ⟨#[]⟩, .bool false, .string ⟨#[]⟩, .bool false, .bool false, .slice none 0 0, .bool false, .string ⟨#[]⟩, .int .i32 0] 38) = W := ⟨_, rfl⟩
  rw [hW] at hR0 hB0
  rw [← hr] at hR0
  have HM := Lib.hid hm
  have HRA := Lib.hid hR0
  have HB0 := Lib.hid hB0
  have HR0 := Lib.hid (show w.heap.size ≤ r by omega)
  have HRE := Lib.hid hr
  have HWE := Lib.hid hW
  have HK := Lib.hid hk
  have HS := Lib.hid hs
  clear hm hk hs hR0 hB0 hW hr
  go_enter Tryz.func25, Tryz.ntmps25
  go_wp2_with fail
  rw [HWE.out, ← HRE.out]
  refine (HC.out W).mono ?_
  rintro e w1 ⟨rfl, hb1⟩
  have hR1 := HRA.out.below hb1
  have hB1 := below_next HB0.out hb1
  go_wp2_with fail
  have hat : At (w1.alloc (.cells #[.string s, .int .i64 k] 79)) w1.heap.size #[.string s, .int .i64 k] 79 s k := at_new rfl
  have hr2 := hR1.below (below_alloc (Below.refl w1.heap.size w1) (.cells #[.string s, .int .i64 k] 79))
  have hB2 : Below w.heap.size w (w1.alloc (.cells #[.string s, .int .i64 k] 79)) := below_alloc hB1 _
  have hrc : r ≠ w1.heap.size := Nat.ne_of_lt hR1.lt
  have hle : w.heap.size ≤ w1.heap.size := hB1.size
  generalize w1.alloc (.cells #[.string s, .int .i64 k] 79) = w2 at hat hr2 hB2 ⊢
  generalize w1.heap.size = cb at hat hrc hle ⊢
  have HT := Lib.hid (tookE cb _ 79 s ⟨#[45, 45]⟩ k 2 rfl HK.out (by have := HS.out; omega) w2 hat)
  have HAT := Lib.hid hat
  have HR2 := Lib.hid hr2
  have HB2 := Lib.hid hB2
  have HRC := Lib.hid hrc
  have HLE := Lib.hid hle
  clear hat hr2 hB2 hrc hle hR1 hB1 hb1
  refine HT.out.mono ?_
  rintro e w3 (⟨rfl, hp, hk2, h3, hB3⟩ | ⟨rfl, hp, h3, hB3⟩)
  · have hR3 := HR2.out.but hB3 HRC.out
    have hb3 := below_but HB2.out hB3 HLE.out
    have HB3 := Lib.hid hb3
    have HR3 := Lib.hid hR3
    have c1 := h3.cell1
    have hfin : declT (refL lg true) cd (s.data.toList.drop k) = ({ kind := 4, data := (comL (s.data.toList.drop (k + 2))).1 }, [], 2 + (comL (s.data.toList.drop (k + 2))).2) := by
      unfold declT declZ
      rw [if_pos hp, List.drop_drop]
      rfl
    have HF := Lib.hid hfin
    have HCO := Lib.hid (fun W hm => commentC s ((k + 2 : Nat) : Int) m HS.out W hm)
    rw [clip_nat s (k + 2) hk2, tlS_nat s (k + 2) hk2] at HCO
    generalize (comL (s.data.toList.drop (k + 2))).2 = n at HCO HF
    generalize (comL (s.data.toList.drop (k + 2))).1 = d at HCO HF
    obtain ⟨D, hD⟩ : ∃ D, D = bl d := ⟨_, rfl⟩
    have HD := Lib.hid hD
    rw [← hD] at HCO
    obtain ⟨N, hN⟩ : ∃ N : Int, N = ((k + 2 + n : Nat) : Int) := ⟨_, rfl⟩
    have HN := Lib.hid hN
    rw [← hN, show ((k + 2 : Nat) : Int) = (k : Int) + 2 by omega] at HCO
    clear hp h3 hB3 hR3 hb3 hfin hD hN
    go_wp2_with fail
    refine (HCO.out w3 (carry HM.out HB3.out)).mono ?_
    rintro e w4 ⟨rfl, hb4⟩
    have hR := HR3.out.below hb4
    have hB4 := below_next HB3.out hb4
    have hR2 : TokAt ((w4.setCell ⟨r, 10, none⟩ (.string D)).setCell ⟨r, 0, none⟩ (.int .i64 4)) r #[.int .i64 4, .string ⟨#[]⟩, .bool false, .string ⟨#[]⟩, .bool false, .string ⟨#[]⟩, .bool false, .bool false, .slice none 0 0, .bool false, .string D, .int .i32 0] := heap_set (heap_set hR 10 _) 0 _
    have hBS := below_two (i := 10) (j := 0) (u := .string D) (v := .int .i64 4) hB4 HR0.out
    have HRR := Lib.hid hR2
    have HBS := Lib.hid hBS
    obtain ⟨z0, z1, z2, z3, z4, z5, z6, z7, z8, z9, z10, z11⟩ := TokAt.zero hR
    obtain ⟨y0, y1, y2, y3, y4, y5, y6, y7, y8, y9, y10, y11⟩ := TokAt.frz hR
    clear hR hR2 hBS
    go_wp2_with fail
    obtain ⟨w3', hw3, h3', hb3, hbut⟩ := retW2 HRR.out HBS.out HR0.out (.int .i64 4) (.string ⟨#[]⟩) (.bool false) (.string ⟨#[]⟩) (.bool false) (.string ⟨#[]⟩) (.bool false) (.bool false) (.slice none 0 0) (.bool false) (.string D) (.int .i32 0)
    rw [hw3]
    obtain ⟨r0, r1, r2, r3, r4, r5, r6, r7, r8, r9, r10, r11⟩ := h3'.cells
    clear hw3
    refine bodyPost_ret (v := .tuple #[.agg #[.int .i64 4, .string ⟨#[]⟩, .bool false, .string ⟨#[]⟩, .bool false, .string ⟨#[]⟩, .bool false, .bool false, .slice none 0 0, .bool false, .string D, .int .i32 0], .string ⟨#[]⟩, .int .i64 N]) (by simp [results, Tryz.results25, go_sem, r0, r1, r2, r3, r4, r5, r6, r7, r8, r9, r10, r11]) rfl ?_
    rw [HF.out, HN.out, HD.out]
    exact mkR_com' w w3' hb3 (by omega)
  · have hR3 := HR2.out.but hB3 HRC.out
    have hb3 := below_but HB2.out hB3 HLE.out
    have HB3 := Lib.hid hb3
    have HR3 := Lib.hid hR3
    have HP := Lib.hid hp
    have HFO := Lib.hid (foldedE cb _ 79 s ⟨#[100, 111, 99, 116, 121, 112, 101]⟩ k rfl HK.out (by have := HS.out; omega) w3 h3)
    clear hp h3 hB3 hR3 hb3
    go_wp2_with fail
    refine HFO.out.mono ?_
    rintro e w4 (⟨rfl, hl, hk7, h4, hB4⟩ | ⟨rfl, hl, h4, hB4⟩)
    · have hR4 := HR3.out.but hB4 HRC.out
      have hb4 := below_but HB3.out hB4 HLE.out
      have HB4 := Lib.hid hb4
      have HR4 := Lib.hid hR4
      have hk7' : k + 7 ≤ s.size := hk7
      have c1 : w4.cell? ⟨cb, 1, none⟩ = some (.int .i64 ((k + 7 : Nat) : Int)) := h4.cell1
      have hl' : lowL ((s.data.toList.drop k).take 7) = sDoctype := hl
      have hfin : declT (refL lg true) cd (s.data.toList.drop k) = ((docT (s.data.toList.drop (k + 7))).1, [], 7 + (docT (s.data.toList.drop (k + 7))).2) := by
        unfold declT declZ
        rw [HP.out, if_neg Bool.false_ne_true, if_pos hl']
        show (_, _, _) = _
        rw [List.drop_drop]
      have HF := Lib.hid hfin
      have HD := Lib.hid (fun W hm => docM s ((k + 7 : Nat) : Int) m HS.out W hm)
      rw [clip_nat s (k + 7) hk7', tlS_nat s (k + 7) hk7', show ((k + 7 : Nat) : Int) = (k : Int) + 7 by omega] at HD
      generalize docT (s.data.toList.drop (k + 7)) = X at HD HF
      obtain ⟨T, n⟩ := X
      unfold DocR at HD
      obtain ⟨N, hN⟩ : ∃ N : Int, N = ((k + 7 + n : Nat) : Int) := ⟨_, rfl⟩
      simp only [← hN] at HD
      have HN := Lib.hid (show ((k + (7 + n) : Nat) : Int) = N by rw [hN]; omega)
      clear hl hl' hk7 hk7' h4 hB4 hR4 hb4 hfin hN
      go_wp2_with fail
      refine (HD.out w4 (carry HM.out HB4.out)).mono ?_
      rintro e w5 ⟨v, rfl, ht, hb5⟩
      obtain ⟨k1, n1, hn1, p1, hp1, y1, hy1, q1, A1, pn1, pc1, sc1, d1, r1, rfl, -⟩ := ht.form
      have hR := HR4.out.below hb5
      have HB5 := Lib.hid (below_next HB4.out hb5)
      have HTK := Lib.hid ht
      clear ht hb5
      have HRR := Lib.hid (show w5.heap[r]? = some (.cells #[.int .i64 0, .string ⟨#[]⟩, .bool false, .string ⟨#[]⟩, .bool false, .string ⟨#[]⟩, .bool false, .bool false, .slice none 0 0, .bool false, .string ⟨#[]⟩, .int .i32 0] 38 (0, 0)) from hR)
      clear hR
      go_simp
      repeat (first
        | (refine wpList_store_tok (by rfl) 38 _ _ rfl r #[.int .i64 k1, .string n1, .bool hn1, .string p1, .bool hp1, .string y1, .bool hy1, .bool q1, .slice A1 pn1 pc1, .bool sc1, .string d1, .int .i32 r1] rfl rfl 38 _ HRR.out (by kernel_rfl) rfl (oc12 _ _ _ _ _ _ _ _ _ _ _ _ _ _) ?_; intro w6 h6 b6; have H6 := Lib.hid h6; have B6 := Lib.hid b6; clear h6 b6)
        | (refine wpList_load_row (by rfl) 38 _ rfl r rfl 38 _ (0, 0) _ H6.out Tryz.underlying38 rfl (by kernel_rfl) ?_)
        | (refine wpList_store_tok (by rfl) 38 _ _ rfl r #[.int .i64 k1, .string n1, .bool hn1, .string p1, .bool hp1, .string y1, .bool hy1, .bool q1, .slice A1 pn1 pc1, .bool sc1, .string d1, .int .i32 r1] rfl rfl 38 _ H6.out (by kernel_rfl) rfl (oc12 _ _ _ _ _ _ _ _ _ _ _ _ _ _) ?_; intro w7 h7 b7; have H7 := Lib.hid h7; have B7 := Lib.hid b7; clear h7 b7)
        | go_values
        | go_skip
        | go_guarded
        | go_step
        | go_upon
        | go_back)
      have hb7 := below_but (below_but HB5.out B6.out HR0.out) B7.out HR0.out
      obtain ⟨e0, e1, e2, e3, e4, e5, e6, e7, e8, e9, e10, e11⟩ := TokAt.cells (show TokAt w7 r #[.int .i64 k1, .string n1, .bool hn1, .string p1, .bool hp1, .string y1, .bool hy1, .bool q1, .slice A1 pn1 pc1, .bool sc1, .string d1, .int .i32 r1] from H7.out)
      refine bodyPost_ret (v := .tuple #[.agg #[.int .i64 k1, .string n1, .bool hn1, .string p1, .bool hp1, .string y1, .bool hy1, .bool q1, .slice A1 pn1 pc1, .bool sc1, .string d1, .int .i32 r1], .string ⟨#[]⟩, .int .i64 N]) (by simp [results, Tryz.results25, go_sem, e0, e1, e2, e3, e4, e5, e6, e7, e8, e9, e10, e11]) rfl ?_
      rw [HF.out, ← HN.out]
      exact ⟨_, rfl, tokRow_but (tokRow_but HTK.out HRR.out rfl B6.out) H6.out rfl B7.out, hb7⟩
    · have hR4 := HR3.out.but hB4 HRC.out
      have hb4 := below_but HB3.out hB4 HLE.out
      have HB4 := Lib.hid hb4
      have HR4 := Lib.hid hR4
      have hl' : lowL ((s.data.toList.drop k).take 7) ≠ sDoctype := hl
      have HL := Lib.hid hl'
      have H4 := Lib.hid h4
      clear hl hl' hB4 hR4 hb4
      cases cd with
      | false =>
        have c1 := h4.cell1
        clear h4
        have HBX := HB4
        have HRX := HR4
        have hfin : declT (refL lg true) false (s.data.toList.drop k) = ({ kind := 4, data := nulL (utL [62] (s.data.toList.drop k)).1 }, [], (utL [62] (s.data.toList.drop k)).2) := by
          unfold declT declZ
          rw [HP.out, if_neg Bool.false_ne_true, if_neg HL.out, Bool.false_and, if_neg Bool.false_ne_true]
          rfl
        have HF := Lib.hid hfin
        have HCO := Lib.hid (fun W hm => bogusC s (k : Int) m (by have := HS.out; omega) W hm)
        rw [clip_nat s k HK.out, tlS_nat s k HK.out] at HCO
        generalize (utL [62] (s.data.toList.drop k)).2 = n at HCO HF
        generalize nulL (utL [62] (s.data.toList.drop k)).1 = d at HCO HF
        obtain ⟨D, hD⟩ : ∃ D, D = bl d := ⟨_, rfl⟩
        have HD := Lib.hid hD
        rw [← hD] at HCO
        obtain ⟨N, hN⟩ : ∃ N : Int, N = ((k + n : Nat) : Int) := ⟨_, rfl⟩
        have HN := Lib.hid hN
        rw [← hN] at HCO
        clear hfin hD hN
        go_wp2_with fail
        refine (HCO.out w4 (carry HM.out HBX.out)).mono ?_
        rintro e wb ⟨rfl, hbb⟩
        have hR := HRX.out.below hbb
        have hBb := below_next HBX.out hbb
        have hR2 : TokAt ((wb.setCell ⟨r, 10, none⟩ (.string D)).setCell ⟨r, 0, none⟩ (.int .i64 4)) r #[.int .i64 4, .string ⟨#[]⟩, .bool false, .string ⟨#[]⟩, .bool false, .string ⟨#[]⟩, .bool false, .bool false, .slice none 0 0, .bool false, .string D, .int .i32 0] := heap_set (heap_set hR 10 _) 0 _
        have hBS := below_two (i := 10) (j := 0) (u := .string D) (v := .int .i64 4) hBb HR0.out
        have HRR := Lib.hid hR2
        have HBS := Lib.hid hBS
        obtain ⟨z0, z1, z2, z3, z4, z5, z6, z7, z8, z9, z10, z11⟩ := TokAt.zero hR
        obtain ⟨y0, y1, y2, y3, y4, y5, y6, y7, y8, y9, y10, y11⟩ := TokAt.frz hR
        clear hR hR2 hBS
        go_wp2_with fail
        obtain ⟨w3', hw3, h3', hb3, hbut⟩ := retW2 HRR.out HBS.out HR0.out (.int .i64 4) (.string ⟨#[]⟩) (.bool false) (.string ⟨#[]⟩) (.bool false) (.string ⟨#[]⟩) (.bool false) (.bool false) (.slice none 0 0) (.bool false) (.string D) (.int .i32 0)
        rw [hw3]
        obtain ⟨r0, r1, r2, r3, r4, r5, r6, r7, r8, r9, r10, r11⟩ := h3'.cells
        clear hw3
        refine bodyPost_ret (v := .tuple #[.agg #[.int .i64 4, .string ⟨#[]⟩, .bool false, .string ⟨#[]⟩, .bool false, .string ⟨#[]⟩, .bool false, .bool false, .slice none 0 0, .bool false, .string D, .int .i32 0], .string ⟨#[]⟩, .int .i64 N]) (by simp [results, Tryz.results25, go_sem, r0, r1, r2, r3, r4, r5, r6, r7, r8, r9, r10, r11]) rfl ?_
        rw [HF.out, HN.out, HD.out]
        exact mkR_com' w w3' hb3 (by omega)
      | true =>
        have HT2 := Lib.hid (tookE cb _ 79 s ⟨#[91, 67, 68, 65, 84, 65, 91]⟩ k 7 rfl HK.out (by have := HS.out; omega) w4 h4)
        clear h4
        go_wp2_with fail
        refine HT2.out.mono ?_
        rintro e w5 (⟨rfl, hp, hk7, h5, hB5⟩ | ⟨rfl, hp, h5, hB5⟩)
        · have hR5 := HR4.out.but hB5 HRC.out
          have hb5 := below_but HB4.out hB5 HLE.out
          have HB5 := Lib.hid hb5
          have HR5 := Lib.hid hR5
          have c1 := h5.cell1
          have hfin : declT (refL lg true) true (s.data.toList.drop k) = ({}, (utL [93, 93, 62] (s.data.toList.drop (k + 7))).1, 7 + (utL [93, 93, 62] (s.data.toList.drop (k + 7))).2) := by
            unfold declT declZ
            rw [HP.out, if_neg Bool.false_ne_true, if_neg HL.out, if_pos (by rw [Bool.true_and]; exact hp), List.drop_drop]
            rfl
          have HF := Lib.hid hfin
          have HCO := Lib.hid (fun W hm => cdata s ((k + 7 : Nat) : Int) m (by have := HS.out; omega) W hm)
          rw [clip_nat s (k + 7) hk7, tlS_nat s (k + 7) hk7] at HCO
          generalize (utL [93, 93, 62] (s.data.toList.drop (k + 7))).2 = n at HCO HF
          generalize (utL [93, 93, 62] (s.data.toList.drop (k + 7))).1 = d at HCO HF
          obtain ⟨D, hD⟩ : ∃ D, D = bl d := ⟨_, rfl⟩
          have HD := Lib.hid hD
          rw [← hD] at HCO
          obtain ⟨N, hN⟩ : ∃ N : Int, N = ((k + 7 + n : Nat) : Int) := ⟨_, rfl⟩
          rw [← hN, show ((k + 7 : Nat) : Int) = (k : Int) + 7 by omega] at HCO
          have HN := Lib.hid (show ((k + (7 + n) : Nat) : Int) = N by rw [hN]; omega)
          clear hp hk7 h5 hB5 hR5 hb5 hfin hD hN
          go_wp2_with fail
          refine (HCO.out w5 (carry HM.out HB5.out)).mono ?_
          rintro e wb ⟨rfl, hbb⟩
          have hR := HR5.out.below hbb
          have hBb := below_next HB5.out hbb
          have HRR := Lib.hid hR
          obtain ⟨z0, z1, z2, z3, z4, z5, z6, z7, z8, z9, z10, z11⟩ := TokAt.zero hR
          obtain ⟨y0, y1, y2, y3, y4, y5, y6, y7, y8, y9, y10, y11⟩ := TokAt.frz hR
          clear hR
          go_wp2_with fail
          obtain ⟨w3, hw3, h3, hb3, hbut⟩ := retW HRR.out hBb HR0.out (.int .i64 0) (.string ⟨#[]⟩) (.bool false) (.string ⟨#[]⟩) (.bool false) (.string ⟨#[]⟩) (.bool false) (.bool false) (.slice none 0 0) (.bool false) (.string ⟨#[]⟩) (.int .i32 0)
          rw [hw3]
          obtain ⟨r0, r1, r2, r3, r4, r5, r6, r7, r8, r9, r10, r11⟩ := h3.cells
          clear hw3
          refine bodyPost_ret (v := .tuple #[.agg #[.int .i64 0, .string ⟨#[]⟩, .bool false, .string ⟨#[]⟩, .bool false, .string ⟨#[]⟩, .bool false, .bool false, .slice none 0 0, .bool false, .string ⟨#[]⟩, .int .i32 0], .string D, .int .i64 N]) (by simp [results, Tryz.results25, go_sem, r0, r1, r2, r3, r4, r5, r6, r7, r8, r9, r10, r11]) rfl ?_
          rw [HF.out, HD.out, ← HN.out]
          exact mkR_chars w w3 hb3
        · have hR5 := HR4.out.but hB5 HRC.out
          have hb5 := below_but HB4.out hB5 HLE.out
          have HBX := Lib.hid hb5
          have HRX := Lib.hid hR5
          have hp' : sCdata.isPrefixOf (s.data.toList.drop k) = false := hp
          have HPC := Lib.hid hp'
          have c1 := h5.cell1
          clear hp hp' h5 hB5 hR5 hb5
          have hfin : declT (refL lg true) true (s.data.toList.drop k) = ({ kind := 4, data := nulL (utL [62] (s.data.toList.drop k)).1 }, [], (utL [62] (s.data.toList.drop k)).2) := by
            unfold declT declZ
            rw [HP.out, if_neg Bool.false_ne_true, if_neg HL.out, Bool.true_and, HPC.out, if_neg Bool.false_ne_true]
            rfl
          have HF := Lib.hid hfin
          have HCO := Lib.hid (fun W hm => bogusC s (k : Int) m (by have := HS.out; omega) W hm)
          rw [clip_nat s k HK.out, tlS_nat s k HK.out] at HCO
          generalize (utL [62] (s.data.toList.drop k)).2 = n at HCO HF
          generalize nulL (utL [62] (s.data.toList.drop k)).1 = d at HCO HF
          obtain ⟨D, hD⟩ : ∃ D, D = bl d := ⟨_, rfl⟩
          have HD := Lib.hid hD
          rw [← hD] at HCO
          obtain ⟨N, hN⟩ : ∃ N : Int, N = ((k + n : Nat) : Int) := ⟨_, rfl⟩
          have HN := Lib.hid hN
          rw [← hN] at HCO
          clear hfin hD hN
          go_wp2_with fail
          refine (HCO.out w5 (carry HM.out HBX.out)).mono ?_
          rintro e wb ⟨rfl, hbb⟩
          have hR := HRX.out.below hbb
          have hBb := below_next HBX.out hbb
          have hR2 : TokAt ((wb.setCell ⟨r, 10, none⟩ (.string D)).setCell ⟨r, 0, none⟩ (.int .i64 4)) r #[.int .i64 4, .string ⟨#[]⟩, .bool false, .string ⟨#[]⟩, .bool false, .string ⟨#[]⟩, .bool false, .bool false, .slice none 0 0, .bool false, .string D, .int .i32 0] := heap_set (heap_set hR 10 _) 0 _
          have hBS := below_two (i := 10) (j := 0) (u := .string D) (v := .int .i64 4) hBb HR0.out
          have HRR := Lib.hid hR2
          have HBS := Lib.hid hBS
          obtain ⟨z0, z1, z2, z3, z4, z5, z6, z7, z8, z9, z10, z11⟩ := TokAt.zero hR
          obtain ⟨y0, y1, y2, y3, y4, y5, y6, y7, y8, y9, y10, y11⟩ := TokAt.frz hR
          clear hR hR2 hBS
          go_wp2_with fail
          obtain ⟨w3', hw3, h3', hb3, hbut⟩ := retW2 HRR.out HBS.out HR0.out (.int .i64 4) (.string ⟨#[]⟩) (.bool false) (.string ⟨#[]⟩) (.bool false) (.string ⟨#[]⟩) (.bool false) (.bool false) (.slice none 0 0) (.bool false) (.string D) (.int .i32 0)
          rw [hw3]
          obtain ⟨r0, r1, r2, r3, r4, r5, r6, r7, r8, r9, r10, r11⟩ := h3'.cells
          clear hw3
          refine bodyPost_ret (v := .tuple #[.agg #[.int .i64 4, .string ⟨#[]⟩, .bool false, .string ⟨#[]⟩, .bool false, .string ⟨#[]⟩, .bool false, .bool false, .slice none 0 0, .bool false, .string D, .int .i32 0], .string ⟨#[]⟩, .int .i64 N]) (by simp [results, Tryz.results25, go_sem, r0, r1, r2, r3, r4, r5, r6, r7, r8, r9, r10, r11]) rfl ?_
          rw [HF.out, HN.out, HD.out]
          exact mkR_com' w w3' hb3 (by omega)
theorem clos_tag {R : RefF} {t : List UInt8} (h : seesB (fun r => letB r) t = true) : closeT R t = ((tagT R true t).1, [], (tagT R true t).2.2) := by
  rw [sees_q] at h
  cases t with
  | nil => cases h
  | cons d r =>
    have h2 : leU d = true := h
    unfold closeT closeZ
    simp only
    rw [if_pos h2]
    show (_, _, _) = _
    rw [List.drop_zero, Nat.zero_add]
theorem clos_gt {R : RefF} {t : List UInt8} (h : seesB (fun r => letB r) t = false) (h2 : [62].isPrefixOf t = true) : closeT R t = ({}, [], 1) := by
  obtain ⟨r, rfl⟩ := List.isPrefixOf_iff_prefix.1 h2
  rw [sees_q] at h
  have h3 : leU 62 = false := h
  unfold closeT closeZ
  simp only [List.cons_append, List.nil_append]
  rw [h3, if_neg Bool.false_ne_true, if_pos trivial]
  rfl
theorem clos_bog {R : RefF} {t : List UInt8} (h : seesB (fun r => letB r) t = false) (h2 : [62].isPrefixOf t = false) (h3 : t ≠ []) : closeT R t = goT R t (bogZ t) := by
  rw [sees_q] at h
  cases t with
  | nil => exact absurd rfl h3
  | cons d r =>
    have h4 : leU d = false := h
    have h5 : ¬ d = 62 := by rintro rfl; simp [List.isPrefixOf] at h2
    unfold closeT closeZ
    simp only
    rw [h4, if_neg Bool.false_ne_true, if_neg h5]
theorem closingM (lg : List UInt8 → Nat × List UInt8) (HLG : Hid (LgOk lg)) (b : Nat) (s : ByteArray) (k : Nat) (hk : k ≤ s.size) (hs : s.size ≤ 1000000) (m : Int) (w : World) (hc : CtlW w) (hm : w.cell? ⟨1, 0, none⟩ = some (.int .i64 m)) (h : At w b #[.string s, .int .i64 k] 79 s k) :
    Calls Tryz.prog 77 #[.pointer (some ⟨b, 0, none⟩)] w (MkRb b k (closeT (refL lg true) (s.data.toList.drop k)) w) := by
  have hR0 : TokAt (w.alloc (.cells #[.int .i64 0, .string ⟨#[]⟩, .bool false, .string ⟨#[]⟩, .bool false, .string ⟨#[]⟩, .bool false, .bool false, .slice none 0 0, .bool false, .string ⟨#[]⟩, .int .i32 0] 38)) w.heap.size tok0 := tokAt_new w _
  have hB0 : Below w.heap.size w (w.alloc (.cells #[.int .i64 0, .string ⟨#[]⟩, .bool false, .string ⟨#[]⟩, .bool false, .string ⟨#[]⟩, .bool false, .bool false, .slice none 0 0, .bool false, .string ⟨#[]⟩, .int .i32 0] 38)) := below_alloc (Below.refl _ _) _
  have hat := h.below hB0
  have hrb : w.heap.size ≠ b := Nat.ne_of_gt h.lt
  have hbl0 := h.lt
  obtain ⟨r, hr⟩ : ∃ r, r = w.heap.size := ⟨_, rfl⟩
  obtain ⟨W, hW⟩ : ∃ W, w.alloc (.cells #[.int .i64 0, .string ⟨#[]⟩, .bool false, .string ⟨#[]⟩, .bool false, .string ⟨#[]⟩, .bool false, .bool false, .slice none 0 0, .bool false, .string ⟨#[]⟩, .int .i32 0] 38) = W := ⟨_, rfl⟩
  rw [hW] at hR0 hB0 hat
  rw [← hr] at hR0 hrb
  have HM := Lib.hid (carry hm hB0)
  have HCt := Lib.hid (hc.below hB0)
  have HRA := Lib.hid hR0
  have HB0 := Lib.hid hB0
  have HR0 := Lib.hid (show w.heap.size ≤ r by omega)
  have HRE := Lib.hid hr
  have HRB := Lib.hid hrb
  have HBLE := Lib.hid (show b < w.heap.size from hbl0)
  have HWE := Lib.hid hW
  have HK := Lib.hid hk
  have HS := Lib.hid hs
  have HSE := Lib.hid (seesE 76 (fun args w => enters_of Tryz.func76 (by kernel_rfl) rfl args w) (fun r => letB r) b _ 79 s k hk W (fun W x _ _ => isLetter x W) hat)
  have HAT := Lib.hid hat
  clear hm hc hk hs hR0 hB0 hat hW hr h hrb hbl0
  go_enter Tryz.func77, Tryz.ntmps77
  go_wp2_with fail
  rw [HWE.out, ← HRE.out]
  obtain ⟨q, hq⟩ : ∃ q, q = seesB (fun r => letB r) (s.data.toList.drop k) := ⟨_, rfl⟩
  rw [← hq] at HSE
  have HQ := Lib.hid hq
  clear hq
  refine HSE.out.mono ?_
  rintro e w1 ⟨rfl, hb1⟩
  have hR1 := HRA.out.below hb1
  have hB1 := below_next HB0.out hb1
  have hat1 := HAT.out.below hb1
  have HR1 := Lib.hid hR1
  have HB1 := Lib.hid hB1
  have HAT1 := Lib.hid hat1
  have hbw1 : Below W.heap.size W w1 := hb1
  clear hR1 hB1 hb1
  have c0 := hat1.cell0
  have c1 := hat1.cell1
  have cl := hat1.lt
  have HBW1 := Lib.hid hbw1
  clear hat1 hbw1
  have z0 : W.cell? ⟨r, 0, none⟩ = W.cell? ⟨r, 0, none⟩ := rfl
  clear z0
  cases q with
  | true =>
    have hcl := clos_tag (R := refL lg true) HQ.out.symm
    have hTag := fun W' hc hm => tagM lg HLG s (k : Int) true m HS.out W' hc hm
    rw [clip_nat s k HK.out, tlS_nat s k HK.out] at hTag
    generalize tagT (refL lg true) true (s.data.toList.drop k) = X at hTag hcl
    obtain ⟨T, TB, n⟩ := X
    unfold TagR at hTag
    obtain ⟨N, hN⟩ : ∃ N : Int, N = ((k + n : Nat) : Int) := ⟨_, rfl⟩
    simp only [← hN] at hTag
    have HTG : Hid (∀ W', Below w1.heap.size w1 W' → Calls Tryz.prog 52 #[.string s, .int .i64 k, .bool true] W' fun e w' => ∃ (k1 : Int) (n1 : ByteArray) (hn1 : Bool) (p1 : ByteArray) (hp1 : Bool) (y1 : ByteArray) (hy1 q1 : Bool) (A1 : Option Addr) (pn1 pc1 : Nat) (sc1 : Bool) (d1 : ByteArray) (r1 : Int),
        e = .returned (.tuple #[.agg #[.int .i64 k1, .string n1, .bool hn1, .string p1, .bool hp1, .string y1, .bool hy1, .bool q1, .slice A1 pn1 pc1, .bool sc1, .string d1, .int .i32 r1], .bool TB, .int .i64 N]) ∧ TokRow w' (.agg #[.int .i64 k1, .string n1, .bool hn1, .string p1, .bool hp1, .string y1, .bool hy1, .bool q1, .slice A1 pn1 pc1, .bool sc1, .string d1, .int .i32 r1]) T ∧ TokAt w' r tok0 ∧ Below w1.heap.size w1 w') := Lib.hid (by
      intro W' hW
      refine (hTag W' (HCt.out.below (below_next HBW1.out hW)) (carry HM.out (below_next HBW1.out hW))).mono ?_
      rintro e w' ⟨v, rfl, ht, hb⟩
      obtain ⟨k1, n1, hn1, p1, hp1, y1, hy1, q1, A1, pn1, pc1, sc1, d1, r1, rfl, -⟩ := ht.form
      exact ⟨_, _, _, _, _, _, _, _, _, _, _, _, _, _, rfl, ht, (HR1.out.below hW).below hb, below_next hW hb⟩)
    have HN := Lib.hid hN
    have HCL := Lib.hid hcl
    clear hcl hTag hN
    go_wp2_with fail
    go_region_with (go_at_call 52; refine (HTG.out _ (by first | exact Below.drew (Below.refl _ _) | exact Below.refl _ _)).mono ?_; rintro e wx ⟨k1, n1, hn1, p1, hp1, y1, hy1, q1, A1, pn1, pc1, sc1, d1, r1, rfl, ht, hrx, hbx⟩; have HTK := Lib.hid ht; have HRX := Lib.hid hrx; have HBX := Lib.hid hbx; obtain ⟨z0, z1, z2, z3, z4, z5, z6, z7, z8, z9, z10, z11⟩ := TokAt.zero hrx; obtain ⟨y0, y1', y2, y3, y4, y5, y6, y7, y8, y9, y10, y11⟩ := TokAt.frz hrx; clear ht hrx hbx)
    all_goals
      obtain ⟨w6, hw6, h6, hb6, b6⟩ := retW HRX.out (below_next HB1.out HBX.out) HR0.out (.int .i64 k1) (.string n1) (.bool hn1) (.string p1) (.bool hp1) (.string y1) (.bool hy1) (.bool q1) (.slice A1 pn1 pc1) (.bool sc1) (.string d1) (.int .i32 r1)
      rw [hw6]
      have H6 := Lib.hid (show w6.heap[r]? = some (.cells #[.int .i64 k1, .string n1, .bool hn1, .string p1, .bool hp1, .string y1, .bool hy1, .bool q1, .slice A1 pn1 pc1, .bool sc1, .string d1, .int .i32 r1] 38 (0, 0)) from h6)
      have B6 := Lib.hid b6
      have HB6 := Lib.hid hb6
      clear hw6 h6 b6 hb6 z0 z1 z2 z3 z4 z5 z6 z7 z8 z9 z10 z11 y0 y1' y2 y3 y4 y5 y6 y7 y8 y9 y10 y11
      go_simp
      repeat (first
        | (refine wpList_load_row (by rfl) 38 _ rfl r rfl 38 _ (0, 0) _ H6.out Tryz.underlying38 rfl (by kernel_rfl) ?_)
        | (refine wpList_store_tok (by rfl) 38 _ _ rfl r #[.int .i64 k1, .string n1, .bool hn1, .string p1, .bool hp1, .string y1, .bool hy1, .bool q1, .slice A1 pn1 pc1, .bool sc1, .string d1, .int .i32 r1] rfl rfl 38 _ H6.out (by kernel_rfl) rfl (oc12 _ _ _ _ _ _ _ _ _ _ _ _ _ _) ?_; intro w7 h7 b7; have H7 := Lib.hid h7; have B7 := Lib.hid b7; clear h7 b7)
        | go_values
        | go_skip
        | go_guarded
        | go_step
        | go_upon
        | go_back)
      have hb7 := below_but HB6.out B7.out HR0.out
      obtain ⟨e0, e1, e2, e3, e4, e5, e6, e7, e8, e9, e10, e11⟩ := TokAt.cells (show TokAt w7 r #[.int .i64 k1, .string n1, .bool hn1, .string p1, .bool hp1, .string y1, .bool hy1, .bool q1, .slice A1 pn1 pc1, .bool sc1, .string d1, .int .i32 r1] from H7.out)
      refine bodyPost_ret (v := .tuple #[.agg #[.int .i64 k1, .string n1, .bool hn1, .string p1, .bool hp1, .string y1, .bool hy1, .bool q1, .slice A1 pn1 pc1, .bool sc1, .string d1, .int .i32 r1], .string ⟨#[]⟩, .int .i64 N]) (by simp [results, Tryz.results77, go_sem, e0, e1, e2, e3, e4, e5, e6, e7, e8, e9, e10, e11]) rfl ?_
      rw [HCL.out, HN.out]
      exact ⟨_, rfl, tokRow_but (tokRow_but HTK.out HRX.out rfl B6.out) H6.out rfl B7.out, But.of_below hb7⟩
  | false =>
    have HTO := Lib.hid (tookE b _ 79 s ⟨#[62]⟩ k 1 rfl HK.out (by have := HS.out; omega) w1 HAT1.out)
    clear c0 c1
    go_wp2_with fail
    refine HTO.out.mono ?_
    rintro e w2 (⟨rfl, hp, hk1, h2, hB2⟩ | ⟨rfl, hp, h2, hB2⟩)
    · have hR := HR1.out.but hB2 HRB.out
      have HB2 := Lib.hid ((But.of_below (b := b) HB1.out).trans hB2)
      have HCL := Lib.hid (clos_gt (R := refL lg true) HQ.out.symm hp)
      have c1 := h2.cell1
      have HRR := Lib.hid hR
      obtain ⟨z0, z1, z2, z3, z4, z5, z6, z7, z8, z9, z10, z11⟩ := TokAt.zero hR
      obtain ⟨y0, y1, y2, y3, y4, y5, y6, y7, y8, y9, y10, y11⟩ := TokAt.frz hR
      clear hp hk1 h2 hB2 hR
      have hne := HRB.out
      have hne2 := HRB.out.symm
      go_wp2_with fail
      go_region
      all_goals
        go_wp2_with fail
        obtain ⟨w3, hw3, h3, b3⟩ := retWb HRR.out (.int .i64 0) (.string ⟨#[]⟩) (.bool false) (.string ⟨#[]⟩) (.bool false) (.string ⟨#[]⟩) (.bool false) (.bool false) (.slice none 0 0) (.bool false) (.string ⟨#[]⟩) (.int .i32 0)
        rw [hw3]
        obtain ⟨e0, e1, e2, e3, e4, e5, e6, e7, e8, e9, e10, e11⟩ := TokAt.cells (show TokAt w3.drew r #[.int .i64 0, .string ⟨#[]⟩, .bool false, .string ⟨#[]⟩, .bool false, .string ⟨#[]⟩, .bool false, .bool false, .slice none 0 0, .bool false, .string ⟨#[]⟩, .int .i32 0] from h3)
        clear hw3
        refine bodyPost_ret (v := .tuple #[.agg #[.int .i64 0, .string ⟨#[]⟩, .bool false, .string ⟨#[]⟩, .bool false, .string ⟨#[]⟩, .bool false, .bool false, .slice none 0 0, .bool false, .string ⟨#[]⟩, .int .i32 0], .string ⟨#[]⟩, .int .i64 ((k + 1 : Nat) : Int)]) (by simp [results, Tryz.results77, go_sem, e0, e1, e2, e3, e4, e5, e6, e7, e8, e9, e10, e11]) rfl ?_
        rw [HCL.out]
        exact ⟨_, rfl, tokRow_plain _ {} rfl, but_drewN (but_but HB2.out b3 HR0.out)⟩
    · have HEN := Lib.hid (endedE b _ 79 s k HK.out (decide (k = s.size)) rfl w2 h2)
      have HR2 := Lib.hid (HR1.out.but hB2 HRB.out)
      have HB2 := Lib.hid ((But.of_below (b := b) HB1.out).trans hB2)
      have HBW2 := Lib.hid ((But.of_below (b := b) HBW1.out).trans hB2)
      have HP := Lib.hid hp
      clear h2 hB2 hp
      by_cases hend : k = s.size
      · rw [decide_eq_true hend] at HEN
        have hcl : closeT (refL lg true) (s.data.toList.drop k) = ({}, [60, 47], 0) := by
          rw [drop_end s k (by omega)]
          rfl
        have HCL := Lib.hid hcl
        clear hcl hend
        go_wp2_with fail
        refine HEN.out.mono ?_
        rintro e w3 ⟨rfl, hb3, h3⟩
        have hR := HR2.out.below hb3
        have HB3 := Lib.hid (HB2.out.trans (But.of_below hb3))
        have c1 := h3.cell1
        have HRR := Lib.hid hR
        obtain ⟨z0, z1, z2, z3, z4, z5, z6, z7, z8, z9, z10, z11⟩ := TokAt.zero hR
        obtain ⟨y0, y1, y2, y3, y4, y5, y6, y7, y8, y9, y10, y11⟩ := TokAt.frz hR
        have hne := HRB.out
        have hne2 := HRB.out.symm
        clear hb3 h3 hR
        go_wp2_with fail
        go_region
        all_goals
          go_wp2_with fail
          obtain ⟨w4, hw4, h4, b4⟩ := retWb HRR.out (.int .i64 0) (.string ⟨#[]⟩) (.bool false) (.string ⟨#[]⟩) (.bool false) (.string ⟨#[]⟩) (.bool false) (.bool false) (.slice none 0 0) (.bool false) (.string ⟨#[]⟩) (.int .i32 0)
          rw [hw4]
          obtain ⟨e0, e1, e2, e3, e4, e5, e6, e7, e8, e9, e10, e11⟩ := TokAt.cells (show TokAt w4.drew r #[.int .i64 0, .string ⟨#[]⟩, .bool false, .string ⟨#[]⟩, .bool false, .string ⟨#[]⟩, .bool false, .bool false, .slice none 0 0, .bool false, .string ⟨#[]⟩, .int .i32 0] from h4)
          clear hw4
          refine bodyPost_ret (v := .tuple #[.agg #[.int .i64 0, .string ⟨#[]⟩, .bool false, .string ⟨#[]⟩, .bool false, .string ⟨#[]⟩, .bool false, .bool false, .slice none 0 0, .bool false, .string ⟨#[]⟩, .int .i32 0], .string ⟨#[60, 47]⟩, .int .i64 (k : Int)]) (by simp [results, Tryz.results77, go_sem, e0, e1, e2, e3, e4, e5, e6, e7, e8, e9, e10, e11]) rfl ?_
          rw [HCL.out]
          exact ⟨_, rfl, tokRow_plain _ {} rfl, but_drewN (but_but HB3.out b4 HR0.out)⟩
      · rw [decide_eq_false hend] at HEN
        have hcl := clos_bog (R := refL lg true) HQ.out.symm HP.out (by
          intro e
          have h := congrArg List.length e
          rw [List.length_drop, size_list] at h
          have := HK.out
          simp at h
          omega)
        have HCL := Lib.hid hcl
        clear hcl hend
        go_wp2_with fail
        refine HEN.out.mono ?_
        rintro e w3 ⟨rfl, hb3, h3⟩
        have hbo := bogusM b s k HK.out HS.out m w3 (ml_but HM.out HAT.out (HBW2.out.trans (But.of_below hb3))) (refL lg true) h3
        have HR3 := Lib.hid (HR2.out.below hb3)
        have HB3 := Lib.hid (HB2.out.trans (But.of_below hb3))
        have hcl2 := HCL.out
        generalize goT (refL lg true) (s.data.toList.drop k) (bogZ (s.data.toList.drop k)) = X at hbo hcl2
        have HCL2 := Lib.hid hcl2
        obtain ⟨T, C0, n⟩ := X
        unfold MkR at hbo
        obtain ⟨N, hN⟩ : ∃ N : Int, N = ((k + n : Nat) : Int) := ⟨_, rfl⟩
        obtain ⟨C, hC⟩ : ∃ C, C = bl C0 := ⟨_, rfl⟩
        simp only [← hN, ← hC] at hbo
        have HBO := Lib.hid hbo
        have HN := Lib.hid hN
        have HC := Lib.hid hC
        clear hbo hcl2 hN hC hb3 h3
        go_wp2_with fail
        refine HBO.out.mono ?_
        rintro e w4 ⟨v, rfl, ht, hb4⟩
        obtain ⟨k1, n1, hn1, p1, hp1, y1, hy1, q1, A1, pn1, pc1, sc1, d1, r1, rfl, -⟩ := ht.form
        have HRR := Lib.hid (show w4.heap[r]? = some (.cells #[.int .i64 0, .string ⟨#[]⟩, .bool false, .string ⟨#[]⟩, .bool false, .string ⟨#[]⟩, .bool false, .bool false, .slice none 0 0, .bool false, .string ⟨#[]⟩, .int .i32 0] 38 (0, 0)) from HR3.out.below hb4)
        have HB4 := Lib.hid (HB3.out.trans (But.of_below hb4))
        have HTK := Lib.hid ht
        clear ht hb4
        go_simp
        repeat (first
          | (refine wpList_store_tok (by rfl) 38 _ _ rfl r #[.int .i64 k1, .string n1, .bool hn1, .string p1, .bool hp1, .string y1, .bool hy1, .bool q1, .slice A1 pn1 pc1, .bool sc1, .string d1, .int .i32 r1] rfl rfl 38 _ HRR.out (by kernel_rfl) rfl (oc12 _ _ _ _ _ _ _ _ _ _ _ _ _ _) ?_; intro w6 h6 b6; have H6 := Lib.hid h6; have B6 := Lib.hid b6; clear h6 b6)
          | go_values
          | go_skip
          | go_guarded
          | go_step
          | go_upon
          | go_back)
        obtain ⟨e0, e1, e2, e3, e4, e5, e6, e7, e8, e9, e10, e11⟩ := TokAt.cells (show TokAt w6 r #[.int .i64 k1, .string n1, .bool hn1, .string p1, .bool hp1, .string y1, .bool hy1, .bool q1, .slice A1 pn1 pc1, .bool sc1, .string d1, .int .i32 r1] from H6.out)
        refine bodyPost_ret (v := .tuple #[.agg #[.int .i64 k1, .string n1, .bool hn1, .string p1, .bool hp1, .string y1, .bool hy1, .bool q1, .slice A1 pn1 pc1, .bool sc1, .string d1, .int .i32 r1], .string C, .int .i64 N]) (by simp [results, Tryz.results77, go_sem, e0, e1, e2, e3, e4, e5, e6, e7, e8, e9, e10, e11]) rfl ?_
        rw [HCL2.out, HN.out, HC.out]
        exact ⟨_, rfl, tokRow_but HTK.out HRR.out rfl B6.out, but_but HB4.out B6.out HR0.out⟩
theorem pre_cons {c : UInt8} {t : List UInt8} (h : [c].isPrefixOf t = true) : t = c :: t.drop 1 := by
  obtain ⟨r, rfl⟩ := List.isPrefixOf_iff_prefix.1 h
  rfl
theorem pre_no {c d : UInt8} {r : List UInt8} (h : [c].isPrefixOf (d :: r) = false) : ¬ d = c := by
  rintro rfl
  simp [List.isPrefixOf] at h
theorem mk_bang {R : RefF} {cd : Bool} {t : List UInt8} (h : [33].isPrefixOf t = true) : mkT R cd t = shT 1 (declT R cd (t.drop 1)) := by
  conv => lhs; rw [pre_cons h]
  rw [mkT_cons, if_pos rfl]
theorem mk_let {R : RefF} {cd : Bool} {t : List UInt8} (h : [33].isPrefixOf t = false) (h2 : seesB (fun r => letB r) t = true) : mkT R cd t = ((tagT R false t).1, [], (tagT R false t).2.2) := by
  rw [sees_q] at h2
  cases t with
  | nil => cases h2
  | cons d r =>
    have h3 : leU d = true := h2
    rw [mkT_cons, if_neg (pre_no h), if_pos h3]
    show (_, _, _) = _
    rw [List.drop_zero, Nat.zero_add]
theorem mk_slash {R : RefF} {cd : Bool} {t : List UInt8} (h : [33].isPrefixOf t = false) (h2 : seesB (fun r => letB r) t = false) (h3 : [47].isPrefixOf t = true) : mkT R cd t = shT 1 (closeT R (t.drop 1)) := by
  have e := pre_cons h3
  rw [e] at h h2
  rw [sees_q] at h2
  have h4 : leU 47 = false := h2
  conv => lhs; rw [e]
  rw [mkT_cons, if_neg (pre_no h), h4, if_neg Bool.false_ne_true, if_pos rfl]
theorem q_que : (qOf fun r => decide ((r : Int) = 63)) = fun b => b == 63 := q_one 63 63 rfl
theorem mk_q {R : RefF} {cd : Bool} {t : List UInt8} (h : [33].isPrefixOf t = false) (h2 : seesB (fun r => letB r) t = false) (h3 : [47].isPrefixOf t = false) (h4 : seesB (fun r => decide ((r : Int) = 63)) t = true) : mkT R cd t = goT R t (bogZ t) := by
  rw [sees_q] at h2 h4
  rw [q_que] at h4
  cases t with
  | nil => cases h4
  | cons d r =>
    have h5 : leU d = false := h2
    have h6 : d = 63 := by simpa using h4
    rw [mkT_cons, if_neg (pre_no h), h5, if_neg Bool.false_ne_true, if_neg (pre_no h3), if_pos h6]
theorem mk_else {R : RefF} {cd : Bool} {t : List UInt8} (h : [33].isPrefixOf t = false) (h2 : seesB (fun r => letB r) t = false) (h3 : [47].isPrefixOf t = false) (h4 : seesB (fun r => decide ((r : Int) = 63)) t = false) : mkT R cd t = ({}, [60], 0) := by
  rw [sees_q] at h2 h4
  rw [q_que] at h4
  cases t with
  | nil => rfl
  | cons d r =>
    have h5 : leU d = false := h2
    have h6 : ¬ d = 63 := by simpa using h4
    rw [mkT_cons, if_neg (pre_no h), h5, if_neg Bool.false_ne_true, if_neg (pre_no h3), if_neg h6]

theorem markupM (lg : List UInt8 → Nat × List UInt8) (HLG : Hid (LgOk lg)) (s : ByteArray) (a : Int) (cd : Bool) (m : Int) (hs : s.size ≤ 1000000) (w : World) (hc : CtlW w) (hm : w.cell? ⟨1, 0, none⟩ = some (.int .i64 m)) :
    Calls Tryz.prog 23 #[.string s, .int .i64 a, .bool cd] w (MkR (clip s a) (mkT (refL lg true) cd (tlS s a)) w) := by
  have HC := Lib.hid (fun W => cursorAt s a (by unfold maxLen; omega) W)
  have hk := clip_le s a
  unfold tlS
  generalize clip s a = k at HC hk ⊢
  have hR0 : TokAt (w.alloc (.cells #[.int .i64 0, .string ⟨#[]⟩, .bool false, .string ⟨#[]⟩, .bool false, .string ⟨#[]⟩, .bool false, .bool false, .slice none 0 0, .bool false, .string ⟨#[]⟩, .int .i32 0] 38)) w.heap.size tok0 := tokAt_new w _
  have hB0 : Below w.heap.size w (w.alloc (.cells #[.int .i64 0, .string ⟨#[]⟩, .bool false, .string ⟨#[]⟩, .bool false, .string ⟨#[]⟩, .bool false, .bool false, .slice none 0 0, .bool false, .string ⟨#[]⟩, .int .i32 0] 38)) := below_alloc (Below.refl _ _) _
  obtain ⟨r, hr⟩ : ∃ r, r = w.heap.size := ⟨_, rfl⟩
  obtain ⟨W, hW⟩ : ∃ W, w.alloc (.cells #[.int .i64 0, .string ⟨#[]⟩, .bool false, .string ⟨#[]⟩, .bool false, .string ⟨#[]⟩, .bool false, .bool false, .slice none 0 0, .bool false, .string ⟨#[]⟩, .int .i32 0] 38) = W := ⟨_, rfl⟩
  rw [hW] at hR0 hB0
  rw [← hr] at hR0
  have HM := Lib.hid hm
  have HCt := Lib.hid hc
  have HRA := Lib.hid hR0
  have HB0 := Lib.hid hB0
  have HR0 := Lib.hid (show w.heap.size ≤ r by omega)
  have HRE := Lib.hid hr
  have HWE := Lib.hid hW
  have HK := Lib.hid hk
  have HS := Lib.hid hs
  clear hm hc hk hs hR0 hB0 hW hr
  go_enter Tryz.func23, Tryz.ntmps23
  go_wp2_with fail
  rw [HWE.out, ← HRE.out]
  refine (HC.out W).mono ?_
  rintro e w1 ⟨rfl, hb1⟩
  have hR1 := HRA.out.below hb1
  have hB1 := below_next HB0.out hb1
  go_wp2_with fail
  have hat : At (w1.alloc (.cells #[.string s, .int .i64 k] 79)) w1.heap.size #[.string s, .int .i64 k] 79 s k := at_new rfl
  have hr2 := hR1.below (below_alloc (Below.refl w1.heap.size w1) (.cells #[.string s, .int .i64 k] 79))
  have hB2 : Below w.heap.size w (w1.alloc (.cells #[.string s, .int .i64 k] 79)) := below_alloc hB1 _
  have hrc : r ≠ w1.heap.size := Nat.ne_of_lt hR1.lt
  have hle : w.heap.size ≤ w1.heap.size := hB1.size
  generalize w1.alloc (.cells #[.string s, .int .i64 k] 79) = w2 at hat hr2 hB2 ⊢
  generalize w1.heap.size = cb at hat hrc hle ⊢
  have HT := Lib.hid (tookE cb _ 79 s ⟨#[33]⟩ k 1 rfl HK.out (by have := HS.out; omega) w2 hat)
  have HR2 := Lib.hid hr2
  have HB2 := Lib.hid hB2
  have HRC := Lib.hid hrc
  have HLE := Lib.hid hle
  clear hat hr2 hB2 hrc hle hR1 hB1 hb1
  refine HT.out.mono ?_
  rintro e w3 (⟨rfl, hp, hk1, h3, hB3⟩ | ⟨rfl, hp, h3, hB3⟩)
  · have hR3 := HR2.out.but hB3 HRC.out
    have hb3 := below_but HB2.out hB3 HLE.out
    have HB3 := Lib.hid hb3
    have HR3 := Lib.hid hR3
    have c1 := h3.cell1
    have hk1' : k + 1 ≤ s.size := hk1
    have hfin := mk_bang (R := refL lg true) (cd := cd) hp
    rw [List.drop_drop] at hfin
    have hD := fun W hm => declM lg s ((k + 1 : Nat) : Int) cd m HS.out W hm
    rw [clip_nat s (k + 1) hk1', tlS_nat s (k + 1) hk1', show ((k + 1 : Nat) : Int) = (k : Int) + 1 by omega] at hD
    generalize declT (refL lg true) cd (s.data.toList.drop (k + 1)) = X at hD hfin
    obtain ⟨T, C0, n⟩ := X
    unfold MkR at hD
    obtain ⟨N, hN⟩ : ∃ N : Int, N = ((k + 1 + n : Nat) : Int) := ⟨_, rfl⟩
    obtain ⟨C, hC⟩ : ∃ C, C = bl C0 := ⟨_, rfl⟩
    simp only [← hN, ← hC] at hD
    have HN := Lib.hid (show ((k + (1 + n) : Nat) : Int) = N by rw [hN]; omega)
    have HCC := Lib.hid hC
    have HF := Lib.hid hfin
    have HD := Lib.hid hD
    clear hp hk1 hk1' h3 hB3 hR3 hb3 hfin hD hN hC
    go_wp2_with fail
    refine (HD.out w3 (carry HM.out HB3.out)).mono ?_
    rintro e w5 ⟨v, rfl, ht, hb5⟩
    obtain ⟨k1, n1, hn1, p1, hp1, y1, hy1, q1, A1, pn1, pc1, sc1, d1, r1, rfl, -⟩ := ht.form
    have hR := HR3.out.below hb5
    have HB5 := Lib.hid (below_next HB3.out hb5)
    have HTK := Lib.hid ht
    clear ht hb5
    have HRR := Lib.hid (show w5.heap[r]? = some (.cells #[.int .i64 0, .string ⟨#[]⟩, .bool false, .string ⟨#[]⟩, .bool false, .string ⟨#[]⟩, .bool false, .bool false, .slice none 0 0, .bool false, .string ⟨#[]⟩, .int .i32 0] 38 (0, 0)) from hR)
    clear hR
    go_simp
    repeat (first
      | (refine wpList_store_tok (by rfl) 38 _ _ rfl r #[.int .i64 k1, .string n1, .bool hn1, .string p1, .bool hp1, .string y1, .bool hy1, .bool q1, .slice A1 pn1 pc1, .bool sc1, .string d1, .int .i32 r1] rfl rfl 38 _ HRR.out (by kernel_rfl) rfl (oc12 _ _ _ _ _ _ _ _ _ _ _ _ _ _) ?_; intro w6 h6 b6; have H6 := Lib.hid h6; have B6 := Lib.hid b6; clear h6 b6)
      | go_values
      | go_skip
      | go_guarded
      | go_step
      | go_upon
      | go_back)
    have hb7 := below_but HB5.out B6.out HR0.out
    obtain ⟨e0, e1, e2, e3, e4, e5, e6, e7, e8, e9, e10, e11⟩ := TokAt.cells (show TokAt w6 r #[.int .i64 k1, .string n1, .bool hn1, .string p1, .bool hp1, .string y1, .bool hy1, .bool q1, .slice A1 pn1 pc1, .bool sc1, .string d1, .int .i32 r1] from H6.out)
    refine bodyPost_ret (v := .tuple #[.agg #[.int .i64 k1, .string n1, .bool hn1, .string p1, .bool hp1, .string y1, .bool hy1, .bool q1, .slice A1 pn1 pc1, .bool sc1, .string d1, .int .i32 r1], .string C, .int .i64 N]) (by simp [results, Tryz.results23, go_sem, e0, e1, e2, e3, e4, e5, e6, e7, e8, e9, e10, e11]) rfl ?_
    rw [HF.out, ← HN.out, HCC.out]
    show MkR _ (T, C0, 1 + n) _ _ _
    exact ⟨_, rfl, tokRow_but HTK.out HRR.out rfl B6.out, hb7⟩
  · have hR3 := HR2.out.but hB3 HRC.out
    have hb3 := below_but HB2.out hB3 HLE.out
    have HB3 := Lib.hid hb3
    have HR3 := Lib.hid hR3
    have HP := Lib.hid hp
    have HSE := Lib.hid (seesE 76 (fun args w => enters_of Tryz.func76 (by kernel_rfl) rfl args w) (fun r => letB r) cb _ 79 s k HK.out w3 (fun W x _ _ => isLetter x W) h3)
    obtain ⟨q, hq⟩ : ∃ q, q = seesB (fun r => letB r) (s.data.toList.drop k) := ⟨_, rfl⟩
    rw [← hq] at HSE
    have HQ := Lib.hid hq
    have H3 := Lib.hid h3
    clear hq hp h3 hB3 hR3 hb3
    go_wp2_with fail
    refine HSE.out.mono ?_
    rintro e w4 ⟨rfl, hb4⟩
    have hR4 := HR3.out.below hb4
    have hB4 := below_next HB3.out hb4
    have h4 := H3.out.below hb4
    have HB4 := Lib.hid hB4
    have HR4 := Lib.hid hR4
    have H4 := Lib.hid h4
    clear hb4 hR4 hB4 h4
    cases q with
    | true =>
      have c1 := H4.out.cell1
      have hfin := mk_let (R := refL lg true) (cd := cd) HP.out HQ.out.symm
      have hD := fun W hc hm => tagM lg HLG s (k : Int) false m HS.out W hc hm
      rw [clip_nat s k HK.out, tlS_nat s k HK.out] at hD
      generalize tagT (refL lg true) false (s.data.toList.drop k) = X at hD hfin
      obtain ⟨T, TB, n⟩ := X
      unfold TagR at hD
      obtain ⟨N, hN⟩ : ∃ N : Int, N = ((k + n : Nat) : Int) := ⟨_, rfl⟩
      simp only [← hN] at hD
      have HN := Lib.hid (show ((k + n : Nat) : Int) = N from hN.symm)
      have HF := Lib.hid hfin
      have HD := Lib.hid hD
      clear hfin hD hN
      go_wp2_with fail
      refine (HD.out w4 (HCt.out.below HB4.out) (carry HM.out HB4.out)).mono ?_
      rintro e w5 ⟨v, rfl, ht, hb5⟩
      obtain ⟨k1, n1, hn1, p1, hp1, y1, hy1, q1, A1, pn1, pc1, sc1, d1, r1, rfl, -⟩ := ht.form
      have hR := HR4.out.below hb5
      have HB5 := Lib.hid (below_next HB4.out hb5)
      have HTK := Lib.hid ht
      clear ht hb5
      have HRR := Lib.hid (show w5.heap[r]? = some (.cells #[.int .i64 0, .string ⟨#[]⟩, .bool false, .string ⟨#[]⟩, .bool false, .string ⟨#[]⟩, .bool false, .bool false, .slice none 0 0, .bool false, .string ⟨#[]⟩, .int .i32 0] 38 (0, 0)) from hR)
      clear hR
      go_simp
      repeat (first
        | (refine wpList_store_tok (by rfl) 38 _ _ rfl r #[.int .i64 k1, .string n1, .bool hn1, .string p1, .bool hp1, .string y1, .bool hy1, .bool q1, .slice A1 pn1 pc1, .bool sc1, .string d1, .int .i32 r1] rfl rfl 38 _ HRR.out (by kernel_rfl) rfl (oc12 _ _ _ _ _ _ _ _ _ _ _ _ _ _) ?_; intro w6 h6 b6; have H6 := Lib.hid h6; have B6 := Lib.hid b6; clear h6 b6)
        | (refine wpList_load_row (by rfl) 38 _ rfl r rfl 38 _ (0, 0) _ H6.out Tryz.underlying38 rfl (by kernel_rfl) ?_)
        | (refine wpList_store_tok (by rfl) 38 _ _ rfl r #[.int .i64 k1, .string n1, .bool hn1, .string p1, .bool hp1, .string y1, .bool hy1, .bool q1, .slice A1 pn1 pc1, .bool sc1, .string d1, .int .i32 r1] rfl rfl 38 _ H6.out (by kernel_rfl) rfl (oc12 _ _ _ _ _ _ _ _ _ _ _ _ _ _) ?_; intro w7 h7 b7; have H7 := Lib.hid h7; have B7 := Lib.hid b7; clear h7 b7)
        | go_values
        | go_skip
        | go_guarded
        | go_step
        | go_upon
        | go_back)
      have hb7 := below_but (below_but HB5.out B6.out HR0.out) B7.out HR0.out
      obtain ⟨e0, e1, e2, e3, e4, e5, e6, e7, e8, e9, e10, e11⟩ := TokAt.cells (show TokAt w7 r #[.int .i64 k1, .string n1, .bool hn1, .string p1, .bool hp1, .string y1, .bool hy1, .bool q1, .slice A1 pn1 pc1, .bool sc1, .string d1, .int .i32 r1] from H7.out)
      refine bodyPost_ret (v := .tuple #[.agg #[.int .i64 k1, .string n1, .bool hn1, .string p1, .bool hp1, .string y1, .bool hy1, .bool q1, .slice A1 pn1 pc1, .bool sc1, .string d1, .int .i32 r1], .string ⟨#[]⟩, .int .i64 N]) (by simp [results, Tryz.results23, go_sem, e0, e1, e2, e3, e4, e5, e6, e7, e8, e9, e10, e11]) rfl ?_
      rw [HF.out, ← HN.out]
      exact ⟨_, rfl, tokRow_but (tokRow_but HTK.out HRR.out rfl B6.out) H6.out rfl B7.out, hb7⟩
    | false =>
      have HT4 := Lib.hid (tookE cb _ 79 s ⟨#[47]⟩ k 1 rfl HK.out (by have := HS.out; omega) w4 H4.out)
      go_wp2_with fail
      refine HT4.out.mono ?_
      rintro e w5 (⟨rfl, hp, hk1, h5, hB5⟩ | ⟨rfl, hp, h5, hB5⟩)
      · have HR5 := Lib.hid (HR4.out.but hB5 HRC.out)
        have HB5 := Lib.hid (below_but HB4.out hB5 HLE.out)
        have hfin := mk_slash (R := refL lg true) (cd := cd) HP.out HQ.out.symm hp
        rw [List.drop_drop] at hfin
        have hD := closingM lg HLG cb s (k + 1) hk1 HS.out m w5 (HCt.out.below HB5.out) (carry HM.out HB5.out) h5
        generalize closeT (refL lg true) (s.data.toList.drop (k + 1)) = X at hD hfin
        obtain ⟨T, C0, n⟩ := X
        unfold MkRb at hD
        obtain ⟨N, hN⟩ : ∃ N : Int, N = ((k + 1 + n : Nat) : Int) := ⟨_, rfl⟩
        obtain ⟨C, hC⟩ : ∃ C, C = bl C0 := ⟨_, rfl⟩
        simp only [← hN, ← hC] at hD
        have HN := Lib.hid (show ((k + (1 + n) : Nat) : Int) = N by rw [hN]; omega)
        have HCC := Lib.hid hC
        have HF := Lib.hid hfin
        have HD := Lib.hid hD
        clear hp hk1 h5 hB5 hfin hD hN hC
        go_wp2_with fail
        refine HD.out.mono ?_
        rintro e w6' ⟨v, rfl, ht, hb6⟩
        obtain ⟨k1, n1, hn1, p1, hp1, y1, hy1, q1, A1, pn1, pc1, sc1, d1, r1, rfl, -⟩ := ht.form
        have hR := HR5.out.but hb6 HRC.out
        have HB6' := Lib.hid (below_but HB5.out hb6 HLE.out)
        have HTK := Lib.hid ht
        clear ht hb6
        have HRR := Lib.hid (show w6'.heap[r]? = some (.cells #[.int .i64 0, .string ⟨#[]⟩, .bool false, .string ⟨#[]⟩, .bool false, .string ⟨#[]⟩, .bool false, .bool false, .slice none 0 0, .bool false, .string ⟨#[]⟩, .int .i32 0] 38 (0, 0)) from hR)
        clear hR
        go_simp
        repeat (first
          | (refine wpList_store_tok (by rfl) 38 _ _ rfl r #[.int .i64 k1, .string n1, .bool hn1, .string p1, .bool hp1, .string y1, .bool hy1, .bool q1, .slice A1 pn1 pc1, .bool sc1, .string d1, .int .i32 r1] rfl rfl 38 _ HRR.out (by kernel_rfl) rfl (oc12 _ _ _ _ _ _ _ _ _ _ _ _ _ _) ?_; intro w6 h6 b6; have H6 := Lib.hid h6; have B6 := Lib.hid b6; clear h6 b6)
          | go_values
          | go_skip
          | go_guarded
          | go_step
          | go_upon
          | go_back)
        have hb7 := below_but HB6'.out B6.out HR0.out
        obtain ⟨e0, e1, e2, e3, e4, e5, e6, e7, e8, e9, e10, e11⟩ := TokAt.cells (show TokAt w6 r #[.int .i64 k1, .string n1, .bool hn1, .string p1, .bool hp1, .string y1, .bool hy1, .bool q1, .slice A1 pn1 pc1, .bool sc1, .string d1, .int .i32 r1] from H6.out)
        refine bodyPost_ret (v := .tuple #[.agg #[.int .i64 k1, .string n1, .bool hn1, .string p1, .bool hp1, .string y1, .bool hy1, .bool q1, .slice A1 pn1 pc1, .bool sc1, .string d1, .int .i32 r1], .string C, .int .i64 N]) (by simp [results, Tryz.results23, go_sem, e0, e1, e2, e3, e4, e5, e6, e7, e8, e9, e10, e11]) rfl ?_
        rw [HF.out, ← HN.out, HCC.out]
        show MkR _ (T, C0, 1 + n) _ _ _
        exact ⟨_, rfl, tokRow_but HTK.out HRR.out rfl B6.out, hb7⟩
      · have HR5 := Lib.hid (HR4.out.but hB5 HRC.out)
        have HB5 := Lib.hid (below_but HB4.out hB5 HLE.out)
        have HP2 := Lib.hid hp
        have HS5 := Lib.hid (seesE 78 (fun args w => enters_of Tryz.func78 (by kernel_rfl) rfl args w) (fun r => decide ((r : Int) = 63)) cb _ 79 s k HK.out w5 (fun W x _ _ => isQuestion x W) h5)
        obtain ⟨q, hq⟩ : ∃ q, q = seesB (fun r => decide ((r : Int) = 63)) (s.data.toList.drop k) := ⟨_, rfl⟩
        rw [← hq] at HS5
        have HQ2 := Lib.hid hq
        have H5 := Lib.hid h5
        clear hq hp h5 hB5
        go_wp2_with fail
        refine HS5.out.mono ?_
        rintro e w6 ⟨rfl, hb6⟩
        have HR6 := Lib.hid (HR5.out.below hb6)
        have HBB6 := Lib.hid (below_next HB5.out hb6)
        have h6 := H5.out.below hb6
        clear hb6
        cases q with
        | true =>
          have hfin := mk_q (R := refL lg true) (cd := cd) HP.out HQ.out.symm HP2.out HQ2.out.symm
          have hD := bogusM cb s k HK.out HS.out m w6 (carry HM.out HBB6.out) (refL lg true) h6
          generalize goT (refL lg true) (s.data.toList.drop k) (bogZ (s.data.toList.drop k)) = X at hD hfin
          obtain ⟨T, C0, n⟩ := X
          unfold MkR at hD
          obtain ⟨N, hN⟩ : ∃ N : Int, N = ((k + n : Nat) : Int) := ⟨_, rfl⟩
          obtain ⟨C, hC⟩ : ∃ C, C = bl C0 := ⟨_, rfl⟩
          simp only [← hN, ← hC] at hD
          have HN := Lib.hid (show ((k + n : Nat) : Int) = N from hN.symm)
          have HCC := Lib.hid hC
          have HF := Lib.hid hfin
          have HD := Lib.hid hD
          clear h6 hfin hD hN hC
          go_wp2_with fail
          refine HD.out.mono ?_
          rintro e w6' ⟨v, rfl, ht, hb6⟩
          obtain ⟨k1, n1, hn1, p1, hp1, y1, hy1, q1, A1, pn1, pc1, sc1, d1, r1, rfl, -⟩ := ht.form
          have hR := HR6.out.below hb6
          have HB6' := Lib.hid (below_next HBB6.out hb6)
          have HTK := Lib.hid ht
          clear ht hb6
          have HRR := Lib.hid (show w6'.heap[r]? = some (.cells #[.int .i64 0, .string ⟨#[]⟩, .bool false, .string ⟨#[]⟩, .bool false, .string ⟨#[]⟩, .bool false, .bool false, .slice none 0 0, .bool false, .string ⟨#[]⟩, .int .i32 0] 38 (0, 0)) from hR)
          clear hR
          go_simp
          repeat (first
            | (refine wpList_store_tok (by rfl) 38 _ _ rfl r #[.int .i64 k1, .string n1, .bool hn1, .string p1, .bool hp1, .string y1, .bool hy1, .bool q1, .slice A1 pn1 pc1, .bool sc1, .string d1, .int .i32 r1] rfl rfl 38 _ HRR.out (by kernel_rfl) rfl (oc12 _ _ _ _ _ _ _ _ _ _ _ _ _ _) ?_; intro w6 h6 b6; have H6 := Lib.hid h6; have B6 := Lib.hid b6; clear h6 b6)
            | go_values
            | go_skip
            | go_guarded
            | go_step
            | go_upon
            | go_back)
          have hb7 := below_but HB6'.out B6.out HR0.out
          obtain ⟨e0, e1, e2, e3, e4, e5, e6, e7, e8, e9, e10, e11⟩ := TokAt.cells (show TokAt w6 r #[.int .i64 k1, .string n1, .bool hn1, .string p1, .bool hp1, .string y1, .bool hy1, .bool q1, .slice A1 pn1 pc1, .bool sc1, .string d1, .int .i32 r1] from H6.out)
          refine bodyPost_ret (v := .tuple #[.agg #[.int .i64 k1, .string n1, .bool hn1, .string p1, .bool hp1, .string y1, .bool hy1, .bool q1, .slice A1 pn1 pc1, .bool sc1, .string d1, .int .i32 r1], .string C, .int .i64 N]) (by simp [results, Tryz.results23, go_sem, e0, e1, e2, e3, e4, e5, e6, e7, e8, e9, e10, e11]) rfl ?_
          rw [HF.out, ← HN.out, HCC.out]
          exact ⟨_, rfl, tokRow_but HTK.out HRR.out rfl B6.out, hb7⟩
        | false =>
          have hfin := mk_else (R := refL lg true) (cd := cd) HP.out HQ.out.symm HP2.out HQ2.out.symm
          have HF := Lib.hid hfin
          have c1 := h6.cell1
          have hR := HR6.out
          clear hfin h6
          have HRR := Lib.hid hR
          obtain ⟨z0, z1, z2, z3, z4, z5, z6, z7, z8, z9, z10, z11⟩ := TokAt.zero hR
          obtain ⟨y0, y1, y2, y3, y4, y5, y6, y7, y8, y9, y10, y11⟩ := TokAt.frz hR
          have hne := HRC.out
          have hne2 := HRC.out.symm
          clear hR
          go_wp2_with fail
          go_region
          all_goals
            go_wp2_with fail
            obtain ⟨w3', hw3, h3', b3⟩ := retWb HRR.out (.int .i64 0) (.string ⟨#[]⟩) (.bool false) (.string ⟨#[]⟩) (.bool false) (.string ⟨#[]⟩) (.bool false) (.bool false) (.slice none 0 0) (.bool false) (.string ⟨#[]⟩) (.int .i32 0)
            rw [hw3]
            obtain ⟨e0, e1, e2, e3, e4, e5, e6, e7, e8, e9, e10, e11⟩ := TokAt.cells (show TokAt w3'.drew r #[.int .i64 0, .string ⟨#[]⟩, .bool false, .string ⟨#[]⟩, .bool false, .string ⟨#[]⟩, .bool false, .bool false, .slice none 0 0, .bool false, .string ⟨#[]⟩, .int .i32 0] from h3')
            clear hw3
            refine bodyPost_ret (v := .tuple #[.agg #[.int .i64 0, .string ⟨#[]⟩, .bool false, .string ⟨#[]⟩, .bool false, .string ⟨#[]⟩, .bool false, .bool false, .slice none 0 0, .bool false, .string ⟨#[]⟩, .int .i32 0], .string ⟨#[60]⟩, .int .i64 (k : Int)]) (by simp [results, Tryz.results23, go_sem, e0, e1, e2, e3, e4, e5, e6, e7, e8, e9, e10, e11]) rfl ?_
            rw [HF.out]
            exact ⟨_, rfl, tokRow_plain _ {} rfl, (below_but HBB6.out b3 HR0.out).drew⟩
end Go.Proofs.YtnfccckodgknjaaGreatDoor

namespace Go.Proofs.YtnfccckodgknjaaGreatDoor
open Go.RowKit Go.Shelf Go.Lib
set_option maxHeartbeats 4000000
set_option maxRecDepth 100000

theorem qTag (s : ByteArray) (a : Int) (en : Bool) (hs : s.size ≤ 100000) (w : World) :
    Calls Tryz.prog 81 #[.string s, .int .i64 a, .bool en] w (TagR (clip s a) (tagT (refL lgL true) en (tlS s a)) w) := by
  have HN := Lib.hid (fun W => qName s a hs W)
  have hk := clip_le s a
  have hn := runN_in enU s (clip s a)
  have htr : s.data.toList.drop (clip s a + runN enU (tlS s a)) = tgRest (tlS s a) := by unfold tgRest tlS; rw [List.drop_drop]
  obtain ⟨k1, hk1⟩ : ∃ k1, k1 = clip s a + runN enU (tlS s a) := ⟨_, rfl⟩
  obtain ⟨nm, hnm⟩ : ∃ nm, nm = bl (tgName (tlS s a)) := ⟨_, rfl⟩
  have hnm' : bl (lowL (nulL ((tlS s a).take (runN enU (tlS s a))))) = nm := hnm.symm
  rw [← hk1, hnm'] at HN
  rw [← hk1] at htr
  have hk1s : k1 ≤ s.size := by rw [hk1]; unfold tlS; omega
  have HA := Lib.hid (fun W => qAttributes s k1 hs W)
  rw [clip_nat s k1 hk1s] at HA
  have HKK := Lib.hid (show clip s a ≤ k1 by omega)
  have HFIN := Lib.hid (fun w' (tk : Value) (cl : Bool) (N : Nat) (hb : Below w.heap.size w w') (h1 : clip s a ≤ N) (h2 : N ≤ s.size) h => tagR_of (R := refL lgL true) (s := s) (a := a) (en := en) (w := w) (w' := w') (tk := tk) (cl := cl) hb h1 h2 (by omega) h)
  have HTR := Lib.hid htr
  have HNM := Lib.hid hnm
  have hR0 : TokAt (w.alloc (.cells #[.int .i64 0, .string ⟨#[]⟩, .bool false, .string ⟨#[]⟩, .bool false, .string ⟨#[]⟩, .bool false, .bool false, .slice none 0 0, .bool false, .string ⟨#[]⟩, .int .i32 0] 38)) w.heap.size tok0 := tokAt_new w _
  have hB0 : Below w.heap.size w (w.alloc (.cells #[.int .i64 0, .string ⟨#[]⟩, .bool false, .string ⟨#[]⟩, .bool false, .string ⟨#[]⟩, .bool false, .bool false, .slice none 0 0, .bool false, .string ⟨#[]⟩, .int .i32 0] 38)) := below_alloc (Below.refl _ _) _
  obtain ⟨r, hr⟩ : ∃ r, r = w.heap.size := ⟨_, rfl⟩
  rw [← hr] at hR0
  have HR0 := Lib.hid (show w.heap.size ≤ r by omega)
  have HRE := Lib.hid hr
  have HRA := Lib.hid hR0
  have HB0 := Lib.hid hB0
  clear hk hn htr hk1 hnm hnm' hk1s hs hR0 hB0 hr
  go_enter Tryz.func81, Tryz.ntmps81
  go_wp2_with fail
  rw [← HRE.out]
  refine (HN.out _).mono ?_
  rintro e w1 ⟨rfl, hb1⟩
  have hB1 := below_next HB0.out hb1
  have hR1 := HRA.out.below hb1
  have HB1 := Lib.hid hB1
  have HR1 := Lib.hid hR1
  clear hB1 hR1 hb1
  go_wp2_with fail
  refine (HA.out _).mono ?_
  rintro e w2 ⟨v, sc, cl, N, acc, rfl, hb2, hN1, hN2, hrow, hal, hor⟩
  have hB2 := below_next HB1.out hb2
  have hR := HR1.out.below hb2
  have HOR := Lib.hid hor
  have HN1 := Lib.hid (show clip s a ≤ N by have := HKK.out; omega)
  have HN2 := Lib.hid hN2
  obtain ⟨pa, pn, pc, rfl⟩ : ∃ pa pn pc, v = .slice pa pn pc := by
    rcases hrow.2 with ⟨rfl, _⟩ | ⟨g, cap, cur, rfl, _⟩
    · exact ⟨_, _, _, rfl⟩
    · exact ⟨_, _, _, rfl⟩
  have HROW := Lib.hid hrow
  have HAL := Lib.hid hal
  have HB2 := Lib.hid hB2
  have HKEEP := Lib.hid (hR)
  clear hor hN1 hN2 hrow hal hB2 hb2
  cases cl with
  | false =>
    have HRR := Lib.hid hR
    obtain ⟨z0, z1, z2, z3, z4, z5, z6, z7, z8, z9, z10, z11⟩ := TokAt.zero hR
    obtain ⟨y0, y1, y2, y3, y4, y5, y6, y7, y8, y9, y10, y11⟩ := TokAt.frz hR
    clear hR
    go_wp2_with fail
    obtain ⟨w3, hw3, h3, hb3, hbut⟩ := retW HRR.out HB2.out HR0.out (.int .i64 0) (.string ⟨#[]⟩) (.bool false) (.string ⟨#[]⟩) (.bool false) (.string ⟨#[]⟩) (.bool false) (.bool false) (.slice none 0 0) (.bool false) (.string ⟨#[]⟩) (.int .i32 0)
    rw [hw3]
    obtain ⟨r0, r1, r2, r3, r4, r5, r6, r7, r8, r9, r10, r11⟩ := h3.cells
    clear hw3
    refine bodyPost_ret (v := .tuple #[.agg #[.int .i64 0, .string ⟨#[]⟩, .bool false, .string ⟨#[]⟩, .bool false, .string ⟨#[]⟩, .bool false, .bool false, .slice none 0 0, .bool false, .string ⟨#[]⟩, .int .i32 0], .bool false, .int .i64 N]) (by simp [results, Tryz.results81, go_sem, r0, r1, r2, r3, r4, r5, r6, r7, r8, r9, r10, r11]) rfl ?_
    refine HFIN.out _ _ _ _ hb3 HN1.out HN2.out (.inl ⟨rfl, rfl, ?_, ?_⟩)
    · rcases HOR.out with ⟨h, _⟩ | ⟨_, _, _, _, h, _⟩
      · cases h
      · exact h
    · rcases HOR.out with ⟨h, _⟩ | ⟨_, _, _, _, _, h⟩
      · cases h
      · rw [← HTR.out]; exact h
  | true =>
    have hat : atL (refL lgL true) (tgRest (tlS s a)) = some (acc, sc, s.data.toList.drop N) := by
      rcases HOR.out with ⟨_, h⟩ | ⟨h, _⟩
      · rw [← HTR.out]; exact h
      · cases h
    have HAT := Lib.hid hat
    clear hat
    cases en with
    | true =>
      have HRR := Lib.hid hR
      obtain ⟨z0, z1, z2, z3, z4, z5, z6, z7, z8, z9, z10, z11⟩ := TokAt.zero hR
      obtain ⟨y0, y1, y2, y3, y4, y5, y6, y7, y8, y9, y10, y11⟩ := TokAt.frz hR
      clear hR
      go_wp2_with fail
      obtain ⟨w3, hw3, h3, hb3, hbut⟩ := retW HRR.out HB2.out HR0.out (.int .i64 3) (.string nm) (.bool false) (.string ⟨#[]⟩) (.bool false) (.string ⟨#[]⟩) (.bool false) (.bool false) (.slice none 0 0) (.bool false) (.string ⟨#[]⟩) (.int .i32 0)
      rw [hw3]
      obtain ⟨r0, r1, r2, r3, r4, r5, r6, r7, r8, r9, r10, r11⟩ := h3.cells
      clear hw3
      refine bodyPost_ret (v := .tuple #[.agg #[.int .i64 3, .string nm, .bool false, .string ⟨#[]⟩, .bool false, .string ⟨#[]⟩, .bool false, .bool false, .slice none 0 0, .bool false, .string ⟨#[]⟩, .int .i32 0], .bool true, .int .i64 N]) (by simp [results, Tryz.results81, go_sem, r0, r1, r2, r3, r4, r5, r6, r7, r8, r9, r10, r11]) rfl ?_
      refine HFIN.out _ _ _ _ hb3 HN1.out HN2.out (.inr ⟨rfl, acc, sc, .slice pa pn pc, HAT.out, attrRow_of (own_tok HROW.out HRR.out hbut), HAL.out, by rw [← HNM.out]; rfl⟩)
    | false =>
      have HRR := Lib.hid hR
      obtain ⟨z0, z1, z2, z3, z4, z5, z6, z7, z8, z9, z10, z11⟩ := TokAt.zero hR
      obtain ⟨y0, y1, y2, y3, y4, y5, y6, y7, y8, y9, y10, y11⟩ := TokAt.frz hR
      clear hR
      go_wp2_with fail
      obtain ⟨w3, hw3, h3, hb3, hbut⟩ := retW HRR.out HB2.out HR0.out (.int .i64 2) (.string nm) (.bool false) (.string ⟨#[]⟩) (.bool false) (.string ⟨#[]⟩) (.bool false) (.bool false) (.slice pa pn pc) (.bool sc) (.string ⟨#[]⟩) (.int .i32 0)
      rw [hw3]
      obtain ⟨r0, r1, r2, r3, r4, r5, r6, r7, r8, r9, r10, r11⟩ := h3.cells
      clear hw3
      refine bodyPost_ret (v := .tuple #[.agg #[.int .i64 2, .string nm, .bool false, .string ⟨#[]⟩, .bool false, .string ⟨#[]⟩, .bool false, .bool false, .slice pa pn pc, .bool sc, .string ⟨#[]⟩, .int .i32 0], .bool true, .int .i64 N]) (by simp [results, Tryz.results81, go_sem, r0, r1, r2, r3, r4, r5, r6, r7, r8, r9, r10, r11]) rfl ?_
      refine HFIN.out _ _ _ _ hb3 HN1.out HN2.out (.inr ⟨rfl, acc, sc, .slice pa pn pc, HAT.out, attrRow_of (own_tok HROW.out HRR.out hbut), HAL.out, by rw [← HNM.out]; rfl⟩)
end Go.Proofs.YtnfccckodgknjaaGreatDoor

namespace Go.Proofs.YtnfccckodgknjaaGreatDoor
open Go.RowKit Go.Shelf Go.Lib
set_option maxHeartbeats 4000000
set_option maxRecDepth 100000

theorem tail_at (T : ByteArray) (n : Nat) (h : n ≤ T.size) : (T.extract (T.size - n) T.size).data.toList = T.data.toList.drop (T.size - n) ∧ (T.extract 0 (T.size - n)).data.toList = T.data.toList.take (T.size - n) := by
  refine ⟨ext_drop T _, ?_⟩
  have h1 := ext_take2 T 0 (T.size - n) (Nat.zero_le _) (by omega)
  rw [List.drop_zero, Nat.sub_zero] at h1
  rw [h1]
  rfl
theorem tail_cmp (T : ByteArray) (L : List UInt8) (n : Nat) (hL : L.length = n) (_h : n ≤ T.size) : ((T.extract (T.size - n) T.size).toList == L) = L.isSuffixOf T.data.toList := by
  rw [ByteArray.toList_eq, ext_drop T, Bool.eq_iff_iff, beq_iff_eq, List.isSuffixOf_iff_suffix, List.suffix_iff_eq_drop, size_list, hL]
  exact ⟨fun e => e.symm, fun e => e.symm⟩
theorem qComment (s : ByteArray) (a : Int) (hs : s.size ≤ 1000000) (w : World) :
    Calls Tryz.prog 86 #[.string s, .int .i64 a] w fun e w' => e = .returned (.tuple #[.string (bl (comL (tlS s a)).1), .int .i64 ((clip s a + (comL (tlS s a)).2 : Nat) : Int)]) ∧ Below w.heap.size w w' := by
  have HC := Lib.hid (fun W => qClip s a W)
  have hk := clip_le s a
  unfold tlS
  generalize clip s a = k at HC hk ⊢
  obtain ⟨T, hT⟩ : ∃ T, T = s.extract k s.size := ⟨_, rfl⟩
  have hTl : T.data.toList = s.data.toList.drop k := by rw [hT, ext_drop]
  have hTs : T.size = s.size - k := by rw [hT, ByteArray.size_extract]; omega
  rw [← hTl]
  have HT := Lib.hid hT
  have HK := Lib.hid hk
  have HSZ := Lib.hid hs
  have HTs := Lib.hid hTs
  have hb1 := fun W => rBegins1 T ⟨#[62]⟩ W
  have hb2 := fun W => rBegins1 T ⟨#[45, 62]⟩ W
  obtain ⟨p1, hp1⟩ : ∃ p1, p1 = [62].isPrefixOf T.data.toList := ⟨_, rfl⟩
  obtain ⟨p2, hp2⟩ : ∃ p2, p2 = [45, 62].isPrefixOf T.data.toList := ⟨_, rfl⟩
  rw [show (ByteArray.mk #[62]).data.toList.isPrefixOf T.data.toList = p1 from hp1.symm] at hb1
  rw [show (ByteArray.mk #[45, 62]).data.toList.isPrefixOf T.data.toList = p2 from hp2.symm] at hb2
  have hcl : comL T.data.toList = if p1 then ([], 1) else if p2 then ([], 2) else comS T.data.toList := by unfold comL; rw [hp1, hp2]
  have HB1 := Lib.hid hb1
  have HB2 := Lib.hid hb2
  have HCL := Lib.hid hcl
  have hkI : (k : Int) ≤ (s.size : Int) := by omega
  have hz2 : (s.size : Int) ≤ 1000000 := by omega
  clear hT hTl hTs hb1 hb2 hp1 hp2 hcl hs hk
  cases p1
  · cases p2
    · go_enter Tryz.func86, Tryz.ntmps86
      go_wp2_with fail
      refine (HC.out w).mono ?_
      rintro e w1 ⟨rfl, rfl⟩
      go_wp2_with fail
      rw [← HT.out]
      refine (HB1.out _).mono ?_
      rintro e w2 ⟨rfl, rfl⟩
      go_wp2_with fail
      refine (HB2.out _).mono ?_
      rintro e w3 ⟨rfl, rfl⟩
      go_wp2_with fail
      go_loop [7] (fun i => ∃ j : Nat, j ≤ T.size ∧ i = .int .i64 j ∧ ∀ x, x < j → endAt (T.data.toList.drop x) = false) (fun i => T.size - (intOf i).toNat)
      case atStart => exact ⟨0, Nat.zero_le _, rfl, fun x hx => absurd hx (Nat.not_lt_zero x)⟩
      case round =>
        obtain ⟨j, hj, rfl, hno⟩ := hrel
        have HNO := Lib.hid hno
        clear hno
        have hz3 : (T.size : Int) ≤ 1000000 := by have := HTs.out; omega
        by_cases hlt : j < T.size
        · have hI : (j : Int) < (T.size : Int) := by omega
          have hx := ext_drop T j
          obtain ⟨q1, hq1⟩ : ∃ q1, q1 = [45, 45, 62].isPrefixOf (T.data.toList.drop j) := ⟨_, rfl⟩
          obtain ⟨q2, hq2⟩ : ∃ q2, q2 = [45, 45, 33, 62].isPrefixOf (T.data.toList.drop j) := ⟨_, rfl⟩
          have hc1 := fun W => rBegins1 (T.extract j T.size) ⟨#[45, 45, 62]⟩ W
          have hc2 := fun W => rBegins1 (T.extract j T.size) ⟨#[45, 45, 33, 62]⟩ W
          rw [hx] at hc1 hc2
          rw [show (ByteArray.mk #[45, 45, 62]).data.toList.isPrefixOf (T.data.toList.drop j) = q1 from hq1.symm] at hc1
          rw [show (ByteArray.mk #[45, 45, 33, 62]).data.toList.isPrefixOf (T.data.toList.drop j) = q2 from hq2.symm] at hc2
          have HC1 := Lib.hid hc1
          have HC2 := Lib.hid hc2
          have HQ1 := Lib.hid hq1
          have HQ2 := Lib.hid hq2
          have hn : T.extract 0 j = bl (T.data.toList.take j) := by
            have h1 := ext_take2 T 0 j (Nat.zero_le _) hj
            rw [List.drop_zero, Nat.sub_zero] at h1
            exact h1
          have hnl := fun W => qNul (T.extract 0 j) (by rw [ByteArray.size_extract]; have := HTs.out; have := HSZ.out; omega) W
          rw [show (T.extract 0 j).data.toList = T.data.toList.take j by rw [hn]; rfl] at hnl
          obtain ⟨V, hV⟩ : ∃ V, V = bl (nulL (T.data.toList.take j)) := ⟨_, rfl⟩
          rw [← hV] at hnl
          have HNL := Lib.hid hnl
          have HV := Lib.hid hV
          clear hc1 hc2 hx hq1 hq2 hn hnl hV
          cases q1
          · cases q2
            · go_wp2_with fail
              refine (HC1.out _).mono ?_
              rintro e w3 ⟨rfl, rfl⟩
              go_wp2_with fail
              refine (HC2.out _).mono ?_
              rintro e w4 ⟨rfl, rfl⟩
              go_wp2_with fail
              go_round
              case rel =>
                refine ⟨j + 1, by omega, by go_num, fun x hx => ?_⟩
                rcases Nat.lt_or_ge x j with h | h
                · exact HNO.out x h
                · obtain rfl : x = j := by omega
                  unfold endAt
                  rw [← HQ1.out, ← HQ2.out]
                  rfl
              case measure => simp [intOf]; omega
            · go_wp2_with fail
              refine (HC1.out _).mono ?_
              rintro e w3 ⟨rfl, rfl⟩
              go_wp2_with fail
              refine (HC2.out _).mono ?_
              rintro e w4 ⟨rfl, rfl⟩
              go_wp2_with fail
              refine (HNL.out _).mono ?_
              rintro e w5 ⟨rfl, rfl⟩
              go_wp2_with fail
              go_ret2
              refine ⟨?_, Below.refl _ _⟩
              have h1 := comS_at j T.data.toList HNO.out (by unfold endAt; rw [← HQ1.out, ← HQ2.out]; rfl)
              rw [comS_4e HQ1.out.symm HQ2.out.symm] at h1
              rw [HCL.out, if_neg (by simp), if_neg (by simp), h1, HV.out]
              exact ret2_si (by simp [pre]) (by simp only [pre]; omega)
          · go_wp2_with fail
            refine (HC1.out _).mono ?_
            rintro e w3 ⟨rfl, rfl⟩
            go_wp2_with fail
            refine (HNL.out _).mono ?_
            rintro e w5 ⟨rfl, rfl⟩
            go_wp2_with fail
            go_ret2
            refine ⟨?_, Below.refl _ _⟩
            have h1 := comS_at j T.data.toList HNO.out (by unfold endAt; rw [← HQ1.out]; rfl)
            rw [comS_3e HQ1.out.symm] at h1
            rw [HCL.out, if_neg (by simp), if_neg (by simp), h1, HV.out]
            exact ret2_si (by simp [pre]) (by simp only [pre]; omega)
        · have hI2 : ¬ (j : Int) < (T.size : Int) := by omega
          have hj' : j = T.size := by omega
          have htl : comS T.data.toList = tailR T.data.toList := comS_tail _ (fun x hx => HNO.out x (by rw [size_list] at hx; omega))
          have HTL := Lib.hid htl
          clear hj' htl
          have ht := fun n (h : n ≤ T.size) => tail_at T n h
          have HTA := Lib.hid ht
          clear ht
          go_wp2_with fail
          generalize hw4 : World.alloc _ _ = w4
          have t1 : w4.heap[w3.heap.size]? = some (.cells #[.string ⟨#[45, 45, 33]⟩, .string ⟨#[45, 45]⟩, .string ⟨#[45]⟩] 9 (0, 0)) := by
            rw [← hw4]
            show (w3.heap.push _)[w3.heap.size]? = _; exact Array.getElem?_push_size
          have hb4 : Below w3.heap.size w3 w4 := by rw [← hw4]; exact below_alloc (Below.refl _ _) _
          have c0 : w4.cell? ⟨w3.heap.size, 0, none⟩ = some (.string ⟨#[45, 45, 33]⟩) := heap_cell t1 0
          have c1 : w4.cell? ⟨w3.heap.size, 1, none⟩ = some (.string ⟨#[45, 45]⟩) := heap_cell t1 1
          have c2 : w4.cell? ⟨w3.heap.size, 2, none⟩ = some (.string ⟨#[45]⟩) := heap_cell t1 2
          clear hw4 t1
          refine wp_loop_rounds 4 ?_
          have HB4 := Lib.hid hb4
          clear hb4
          by_cases h3 : 3 ≤ T.size
          · clear hlt
            obtain ⟨y, hy⟩ : ∃ y, [45, 45, 33].isSuffixOf T.data.toList = y := ⟨_, rfl⟩
            have HY := Lib.hid hy
            have hcmp : ((T.extract (T.size - 3) T.size).toList == [45, 45, 33]) = y := by rw [← hy]; exact tail_cmp T [45, 45, 33] 3 rfl (by omega)
            have hnl := fun W => qNul (T.extract 0 (T.size - 3)) (by rw [ByteArray.size_extract]; have := HTs.out; have := HSZ.out; omega) W
            rw [(HTA.out 3 (by omega)).2] at hnl
            obtain ⟨V, hV⟩ : ∃ V, V = bl (nulL (T.data.toList.take (T.size - 3))) := ⟨_, rfl⟩
            rw [← hV] at hnl
            rw [← size_list] at hV
            have HV := Lib.hid hV
            clear hV hy
            obtain ⟨N0, hN⟩ : ∃ N : Int, N = (T.size : Int) - 3 := ⟨_, rfl⟩
            have d1 : decide (0 ≤ N0) = true := decide_eq_true (by omega)
            have hNn : T.size - 3 = N0.toNat := by omega
            rw [hNn] at hcmp hnl
            have HNL := Lib.hid hnl
            have g1 : 0 ≤ N0 := by omega
            have g2 : N0 ≤ (T.size : Int) := by omega
            clear hnl hNn
            rw [rounds_succ]
            cases y
            · have HF0 := HY
              go_wp2_with fail
              rw [← hN]
              have HNN := Lib.hid hN
              clear hN
              go_quiet (fail)
              go_wp2_with fail
              clear d1 hcmp HNL HNN g1 g2 HV HY
              obtain ⟨y, hy⟩ : ∃ y, [45, 45].isSuffixOf T.data.toList = y := ⟨_, rfl⟩
              have HY := Lib.hid hy
              have hcmp : ((T.extract (T.size - 2) T.size).toList == [45, 45]) = y := by rw [← hy]; exact tail_cmp T [45, 45] 2 rfl (by omega)
              have hnl := fun W => qNul (T.extract 0 (T.size - 2)) (by rw [ByteArray.size_extract]; have := HTs.out; have := HSZ.out; omega) W
              rw [(HTA.out 2 (by omega)).2] at hnl
              obtain ⟨V, hV⟩ : ∃ V, V = bl (nulL (T.data.toList.take (T.size - 2))) := ⟨_, rfl⟩
              rw [← hV] at hnl
              rw [← size_list] at hV
              have HV := Lib.hid hV
              clear hV hy
              obtain ⟨N1, hN⟩ : ∃ N : Int, N = (T.size : Int) - 2 := ⟨_, rfl⟩
              have d1 : decide (0 ≤ N1) = true := decide_eq_true (by omega)
              have hNn : T.size - 2 = N1.toNat := by omega
              rw [hNn] at hcmp hnl
              have HNL := Lib.hid hnl
              have g1 : 0 ≤ N1 := by omega
              have g2 : N1 ≤ (T.size : Int) := by omega
              clear hnl hNn
              rw [rounds_succ]
              cases y
              · have HF1 := HY
                go_wp2_with fail
                rw [← hN]
                have HNN := Lib.hid hN
                clear hN
                go_quiet (fail)
                go_wp2_with fail
                clear d1 hcmp HNL HNN g1 g2 HV HY
                obtain ⟨y, hy⟩ : ∃ y, [45].isSuffixOf T.data.toList = y := ⟨_, rfl⟩
                have HY := Lib.hid hy
                have hcmp : ((T.extract (T.size - 1) T.size).toList == [45]) = y := by rw [← hy]; exact tail_cmp T [45] 1 rfl (by omega)
                have hnl := fun W => qNul (T.extract 0 (T.size - 1)) (by rw [ByteArray.size_extract]; have := HTs.out; have := HSZ.out; omega) W
                rw [(HTA.out 1 (by omega)).2] at hnl
                obtain ⟨V, hV⟩ : ∃ V, V = bl (nulL (T.data.toList.take (T.size - 1))) := ⟨_, rfl⟩
                rw [← hV] at hnl
                rw [← size_list] at hV
                have HV := Lib.hid hV
                clear hV hy
                obtain ⟨N2, hN⟩ : ∃ N : Int, N = (T.size : Int) - 1 := ⟨_, rfl⟩
                have d1 : decide (0 ≤ N2) = true := decide_eq_true (by omega)
                have hNn : T.size - 1 = N2.toNat := by omega
                rw [hNn] at hcmp hnl
                have HNL := Lib.hid hnl
                have g1 : 0 ≤ N2 := by omega
                have g2 : N2 ≤ (T.size : Int) := by omega
                clear hnl hNn
                rw [rounds_succ]
                cases y
                · have HF2 := HY
                  go_wp2_with fail
                  rw [← hN]
                  have HNN := Lib.hid hN
                  clear hN
                  go_quiet (fail)
                  go_wp2_with fail
                  clear d1 hcmp HNL HNN g1 g2 HV HY
                  rw [rounds_succ]
                  have HN := Lib.hid (fun W => qNul T (by have := HTs.out; have := HSZ.out; omega) W)
                  obtain ⟨V, hV⟩ : ∃ V, V = bl (nulL T.data.toList) := ⟨_, rfl⟩
                  rw [← hV] at HN
                  have HV := Lib.hid hV
                  clear hV
                  go_wp2_with fail
                  refine (HN.out _).mono ?_
                  rintro e w9 ⟨rfl, rfl⟩
                  go_wp2_with fail
                  go_ret2
                  refine ⟨?_, by first | exact HB4.out | exact _root_.Go.below_drewN HB4.out _ | exact _root_.Go.below_drewN (_root_.Go.below_drewN HB4.out _) _ | exact _root_.Go.below_drewN (_root_.Go.below_drewN (_root_.Go.below_drewN HB4.out _) _) _⟩
                  rw [HCL.out, if_neg (by simp), if_neg (by simp), HTL.out, HV.out]
                  unfold tailR
                  rw [if_neg (by rw [HF0.out]; simp), if_neg (by rw [HF1.out]; simp), if_neg (by rw [HF2.out]; simp)]
                  exact ret2_si rfl (by have := HTs.out; have := HK.out; simp only; rw [size_list]; omega)
                · go_wp2_with fail
                  rw [← hN]
                  have HNN := Lib.hid hN
                  clear hN
                  go_quiet (fail)

                  go_wp2_with fail
                  refine (HNL.out _).mono ?_
                  rintro e w9 ⟨rfl, rfl⟩
                  go_wp2_with fail
                  go_ret2
                  refine ⟨?_, by first | exact HB4.out | exact _root_.Go.below_drewN HB4.out _ | exact _root_.Go.below_drewN (_root_.Go.below_drewN HB4.out _) _ | exact _root_.Go.below_drewN (_root_.Go.below_drewN (_root_.Go.below_drewN HB4.out _) _) _⟩
                  rw [HCL.out, if_neg (by simp), if_neg (by simp), HTL.out, HV.out]
                  unfold tailR
                  rw [if_neg (by rw [HF0.out]; simp), if_neg (by rw [HF1.out]; simp), if_pos HY.out]
                  exact ret2_si rfl (by have := HTs.out; have := HK.out; simp only; rw [size_list]; omega)
              · go_wp2_with fail
                rw [← hN]
                have HNN := Lib.hid hN
                clear hN
                go_quiet (fail)

                go_wp2_with fail
                refine (HNL.out _).mono ?_
                rintro e w9 ⟨rfl, rfl⟩
                go_wp2_with fail
                go_ret2
                refine ⟨?_, by first | exact HB4.out | exact _root_.Go.below_drewN HB4.out _ | exact _root_.Go.below_drewN (_root_.Go.below_drewN HB4.out _) _ | exact _root_.Go.below_drewN (_root_.Go.below_drewN (_root_.Go.below_drewN HB4.out _) _) _⟩
                rw [HCL.out, if_neg (by simp), if_neg (by simp), HTL.out, HV.out]
                unfold tailR
                rw [if_neg (by rw [HF0.out]; simp), if_pos HY.out]
                exact ret2_si rfl (by have := HTs.out; have := HK.out; simp only; rw [size_list]; omega)
            · go_wp2_with fail
              rw [← hN]
              have HNN := Lib.hid hN
              clear hN
              go_quiet (fail)

              go_wp2_with fail
              refine (HNL.out _).mono ?_
              rintro e w9 ⟨rfl, rfl⟩
              go_wp2_with fail
              go_ret2
              refine ⟨?_, by first | exact HB4.out | exact _root_.Go.below_drewN HB4.out _ | exact _root_.Go.below_drewN (_root_.Go.below_drewN HB4.out _) _ | exact _root_.Go.below_drewN (_root_.Go.below_drewN (_root_.Go.below_drewN HB4.out _) _) _⟩
              rw [HCL.out, if_neg (by simp), if_neg (by simp), HTL.out, HV.out]
              unfold tailR
              rw [if_pos HY.out]
              exact ret2_si rfl (by have := HTs.out; have := HK.out; simp only; rw [size_list]; omega)
          · by_cases h2 : 2 ≤ T.size
            · clear hlt
              have hf : [45, 45, 33].isSuffixOf T.data.toList = false := by
                rw [Bool.eq_false_iff]
                intro h
                have h2 := suf_len h
                rw [size_list] at h2
                simp at h2
                omega
              have HF0 := Lib.hid hf
              clear hf
              rw [rounds_succ]
              go_wp2_with fail
              obtain ⟨N0, hN⟩ : ∃ N : Int, N = (T.size : Int) - 3 := ⟨_, rfl⟩
              rw [← hN]
              have d1 : decide (0 ≤ N0) = false := decide_eq_false (by omega)
              have HNN := Lib.hid hN
              clear hN
              go_quiet (fail)
              go_wp2_with fail
              clear d1
              obtain ⟨y, hy⟩ : ∃ y, [45, 45].isSuffixOf T.data.toList = y := ⟨_, rfl⟩
              have HY := Lib.hid hy
              have hcmp : ((T.extract (T.size - 2) T.size).toList == [45, 45]) = y := by rw [← hy]; exact tail_cmp T [45, 45] 2 rfl (by omega)
              have hnl := fun W => qNul (T.extract 0 (T.size - 2)) (by rw [ByteArray.size_extract]; have := HTs.out; have := HSZ.out; omega) W
              rw [(HTA.out 2 (by omega)).2] at hnl
              obtain ⟨V, hV⟩ : ∃ V, V = bl (nulL (T.data.toList.take (T.size - 2))) := ⟨_, rfl⟩
              rw [← hV] at hnl
              rw [← size_list] at hV
              have HV := Lib.hid hV
              clear hV hy
              obtain ⟨N1, hN⟩ : ∃ N : Int, N = (T.size : Int) - 2 := ⟨_, rfl⟩
              have d1 : decide (0 ≤ N1) = true := decide_eq_true (by omega)
              have hNn : T.size - 2 = N1.toNat := by omega
              rw [hNn] at hcmp hnl
              have HNL := Lib.hid hnl
              have g1 : 0 ≤ N1 := by omega
              have g2 : N1 ≤ (T.size : Int) := by omega
              clear hnl hNn
              rw [rounds_succ]
              cases y
              · have HF1 := HY
                go_wp2_with fail
                rw [← hN]
                have HNN := Lib.hid hN
                clear hN
                go_quiet (fail)
                go_wp2_with fail
                clear d1 hcmp HNL HNN g1 g2 HV HY
                obtain ⟨y, hy⟩ : ∃ y, [45].isSuffixOf T.data.toList = y := ⟨_, rfl⟩
                have HY := Lib.hid hy
                have hcmp : ((T.extract (T.size - 1) T.size).toList == [45]) = y := by rw [← hy]; exact tail_cmp T [45] 1 rfl (by omega)
                have hnl := fun W => qNul (T.extract 0 (T.size - 1)) (by rw [ByteArray.size_extract]; have := HTs.out; have := HSZ.out; omega) W
                rw [(HTA.out 1 (by omega)).2] at hnl
                obtain ⟨V, hV⟩ : ∃ V, V = bl (nulL (T.data.toList.take (T.size - 1))) := ⟨_, rfl⟩
                rw [← hV] at hnl
                rw [← size_list] at hV
                have HV := Lib.hid hV
                clear hV hy
                obtain ⟨N2, hN⟩ : ∃ N : Int, N = (T.size : Int) - 1 := ⟨_, rfl⟩
                have d1 : decide (0 ≤ N2) = true := decide_eq_true (by omega)
                have hNn : T.size - 1 = N2.toNat := by omega
                rw [hNn] at hcmp hnl
                have HNL := Lib.hid hnl
                have g1 : 0 ≤ N2 := by omega
                have g2 : N2 ≤ (T.size : Int) := by omega
                clear hnl hNn
                rw [rounds_succ]
                cases y
                · have HF2 := HY
                  go_wp2_with fail
                  rw [← hN]
                  have HNN := Lib.hid hN
                  clear hN
                  go_quiet (fail)
                  go_wp2_with fail
                  clear d1 hcmp HNL HNN g1 g2 HV HY
                  rw [rounds_succ]
                  have HN := Lib.hid (fun W => qNul T (by have := HTs.out; have := HSZ.out; omega) W)
                  obtain ⟨V, hV⟩ : ∃ V, V = bl (nulL T.data.toList) := ⟨_, rfl⟩
                  rw [← hV] at HN
                  have HV := Lib.hid hV
                  clear hV
                  go_wp2_with fail
                  refine (HN.out _).mono ?_
                  rintro e w9 ⟨rfl, rfl⟩
                  go_wp2_with fail
                  go_ret2
                  refine ⟨?_, by first | exact HB4.out | exact _root_.Go.below_drewN HB4.out _ | exact _root_.Go.below_drewN (_root_.Go.below_drewN HB4.out _) _ | exact _root_.Go.below_drewN (_root_.Go.below_drewN (_root_.Go.below_drewN HB4.out _) _) _⟩
                  rw [HCL.out, if_neg (by simp), if_neg (by simp), HTL.out, HV.out]
                  unfold tailR
                  rw [if_neg (by rw [HF0.out]; simp), if_neg (by rw [HF1.out]; simp), if_neg (by rw [HF2.out]; simp)]
                  exact ret2_si rfl (by have := HTs.out; have := HK.out; simp only; rw [size_list]; omega)
                · go_wp2_with fail
                  rw [← hN]
                  have HNN := Lib.hid hN
                  clear hN
                  go_quiet (fail)

                  go_wp2_with fail
                  refine (HNL.out _).mono ?_
                  rintro e w9 ⟨rfl, rfl⟩
                  go_wp2_with fail
                  go_ret2
                  refine ⟨?_, by first | exact HB4.out | exact _root_.Go.below_drewN HB4.out _ | exact _root_.Go.below_drewN (_root_.Go.below_drewN HB4.out _) _ | exact _root_.Go.below_drewN (_root_.Go.below_drewN (_root_.Go.below_drewN HB4.out _) _) _⟩
                  rw [HCL.out, if_neg (by simp), if_neg (by simp), HTL.out, HV.out]
                  unfold tailR
                  rw [if_neg (by rw [HF0.out]; simp), if_neg (by rw [HF1.out]; simp), if_pos HY.out]
                  exact ret2_si rfl (by have := HTs.out; have := HK.out; simp only; rw [size_list]; omega)
              · go_wp2_with fail
                rw [← hN]
                have HNN := Lib.hid hN
                clear hN
                go_quiet (fail)

                go_wp2_with fail
                refine (HNL.out _).mono ?_
                rintro e w9 ⟨rfl, rfl⟩
                go_wp2_with fail
                go_ret2
                refine ⟨?_, by first | exact HB4.out | exact _root_.Go.below_drewN HB4.out _ | exact _root_.Go.below_drewN (_root_.Go.below_drewN HB4.out _) _ | exact _root_.Go.below_drewN (_root_.Go.below_drewN (_root_.Go.below_drewN HB4.out _) _) _⟩
                rw [HCL.out, if_neg (by simp), if_neg (by simp), HTL.out, HV.out]
                unfold tailR
                rw [if_neg (by rw [HF0.out]; simp), if_pos HY.out]
                exact ret2_si rfl (by have := HTs.out; have := HK.out; simp only; rw [size_list]; omega)
            · by_cases h1 : 1 ≤ T.size
              · clear hlt
                have hf : [45, 45, 33].isSuffixOf T.data.toList = false := by
                  rw [Bool.eq_false_iff]
                  intro h
                  have h2 := suf_len h
                  rw [size_list] at h2
                  simp at h2
                  omega
                have HF0 := Lib.hid hf
                clear hf
                rw [rounds_succ]
                go_wp2_with fail
                obtain ⟨N0, hN⟩ : ∃ N : Int, N = (T.size : Int) - 3 := ⟨_, rfl⟩
                rw [← hN]
                have d1 : decide (0 ≤ N0) = false := decide_eq_false (by omega)
                have HNN := Lib.hid hN
                clear hN
                go_quiet (fail)
                go_wp2_with fail
                clear d1
                have hf : [45, 45].isSuffixOf T.data.toList = false := by
                  rw [Bool.eq_false_iff]
                  intro h
                  have h2 := suf_len h
                  rw [size_list] at h2
                  simp at h2
                  omega
                have HF1 := Lib.hid hf
                clear hf
                rw [rounds_succ]
                go_wp2_with fail
                obtain ⟨N1, hN⟩ : ∃ N : Int, N = (T.size : Int) - 2 := ⟨_, rfl⟩
                rw [← hN]
                have d1 : decide (0 ≤ N1) = false := decide_eq_false (by omega)
                have HNN := Lib.hid hN
                clear hN
                go_quiet (fail)
                go_wp2_with fail
                clear d1
                obtain ⟨y, hy⟩ : ∃ y, [45].isSuffixOf T.data.toList = y := ⟨_, rfl⟩
                have HY := Lib.hid hy
                have hcmp : ((T.extract (T.size - 1) T.size).toList == [45]) = y := by rw [← hy]; exact tail_cmp T [45] 1 rfl (by omega)
                have hnl := fun W => qNul (T.extract 0 (T.size - 1)) (by rw [ByteArray.size_extract]; have := HTs.out; have := HSZ.out; omega) W
                rw [(HTA.out 1 (by omega)).2] at hnl
                obtain ⟨V, hV⟩ : ∃ V, V = bl (nulL (T.data.toList.take (T.size - 1))) := ⟨_, rfl⟩
                rw [← hV] at hnl
                rw [← size_list] at hV
                have HV := Lib.hid hV
                clear hV hy
                obtain ⟨N2, hN⟩ : ∃ N : Int, N = (T.size : Int) - 1 := ⟨_, rfl⟩
                have d1 : decide (0 ≤ N2) = true := decide_eq_true (by omega)
                have hNn : T.size - 1 = N2.toNat := by omega
                rw [hNn] at hcmp hnl
                have HNL := Lib.hid hnl
                have g1 : 0 ≤ N2 := by omega
                have g2 : N2 ≤ (T.size : Int) := by omega
                clear hnl hNn
                rw [rounds_succ]
                cases y
                · have HF2 := HY
                  go_wp2_with fail
                  rw [← hN]
                  have HNN := Lib.hid hN
                  clear hN
                  go_quiet (fail)
                  go_wp2_with fail
                  clear d1 hcmp HNL HNN g1 g2 HV HY
                  rw [rounds_succ]
                  have HN := Lib.hid (fun W => qNul T (by have := HTs.out; have := HSZ.out; omega) W)
                  obtain ⟨V, hV⟩ : ∃ V, V = bl (nulL T.data.toList) := ⟨_, rfl⟩
                  rw [← hV] at HN
                  have HV := Lib.hid hV
                  clear hV
                  go_wp2_with fail
                  refine (HN.out _).mono ?_
                  rintro e w9 ⟨rfl, rfl⟩
                  go_wp2_with fail
                  go_ret2
                  refine ⟨?_, by first | exact HB4.out | exact _root_.Go.below_drewN HB4.out _ | exact _root_.Go.below_drewN (_root_.Go.below_drewN HB4.out _) _ | exact _root_.Go.below_drewN (_root_.Go.below_drewN (_root_.Go.below_drewN HB4.out _) _) _⟩
                  rw [HCL.out, if_neg (by simp), if_neg (by simp), HTL.out, HV.out]
                  unfold tailR
                  rw [if_neg (by rw [HF0.out]; simp), if_neg (by rw [HF1.out]; simp), if_neg (by rw [HF2.out]; simp)]
                  exact ret2_si rfl (by have := HTs.out; have := HK.out; simp only; rw [size_list]; omega)
                · go_wp2_with fail
                  rw [← hN]
                  have HNN := Lib.hid hN
                  clear hN
                  go_quiet (fail)

                  go_wp2_with fail
                  refine (HNL.out _).mono ?_
                  rintro e w9 ⟨rfl, rfl⟩
                  go_wp2_with fail
                  go_ret2
                  refine ⟨?_, by first | exact HB4.out | exact _root_.Go.below_drewN HB4.out _ | exact _root_.Go.below_drewN (_root_.Go.below_drewN HB4.out _) _ | exact _root_.Go.below_drewN (_root_.Go.below_drewN (_root_.Go.below_drewN HB4.out _) _) _⟩
                  rw [HCL.out, if_neg (by simp), if_neg (by simp), HTL.out, HV.out]
                  unfold tailR
                  rw [if_neg (by rw [HF0.out]; simp), if_neg (by rw [HF1.out]; simp), if_pos HY.out]
                  exact ret2_si rfl (by have := HTs.out; have := HK.out; simp only; rw [size_list]; omega)
              · clear hlt
                have hf : [45, 45, 33].isSuffixOf T.data.toList = false := by
                  rw [Bool.eq_false_iff]
                  intro h
                  have h2 := suf_len h
                  rw [size_list] at h2
                  simp at h2
                  omega
                have HF0 := Lib.hid hf
                clear hf
                rw [rounds_succ]
                go_wp2_with fail
                obtain ⟨N0, hN⟩ : ∃ N : Int, N = (T.size : Int) - 3 := ⟨_, rfl⟩
                rw [← hN]
                have d1 : decide (0 ≤ N0) = false := decide_eq_false (by omega)
                have HNN := Lib.hid hN
                clear hN
                go_quiet (fail)
                go_wp2_with fail
                clear d1
                have hf : [45, 45].isSuffixOf T.data.toList = false := by
                  rw [Bool.eq_false_iff]
                  intro h
                  have h2 := suf_len h
                  rw [size_list] at h2
                  simp at h2
                  omega
                have HF1 := Lib.hid hf
                clear hf
                rw [rounds_succ]
                go_wp2_with fail
                obtain ⟨N1, hN⟩ : ∃ N : Int, N = (T.size : Int) - 2 := ⟨_, rfl⟩
                rw [← hN]
                have d1 : decide (0 ≤ N1) = false := decide_eq_false (by omega)
                have HNN := Lib.hid hN
                clear hN
                go_quiet (fail)
                go_wp2_with fail
                clear d1
                have hf : [45].isSuffixOf T.data.toList = false := by
                  rw [Bool.eq_false_iff]
                  intro h
                  have h2 := suf_len h
                  rw [size_list] at h2
                  simp at h2
                  omega
                have HF2 := Lib.hid hf
                clear hf
                rw [rounds_succ]
                go_wp2_with fail
                obtain ⟨N2, hN⟩ : ∃ N : Int, N = (T.size : Int) - 1 := ⟨_, rfl⟩
                rw [← hN]
                have d1 : decide (0 ≤ N2) = false := decide_eq_false (by omega)
                have HNN := Lib.hid hN
                clear hN
                go_quiet (fail)
                go_wp2_with fail
                clear d1
                rw [rounds_succ]
                have HN := Lib.hid (fun W => qNul T (by have := HTs.out; have := HSZ.out; omega) W)
                obtain ⟨V, hV⟩ : ∃ V, V = bl (nulL T.data.toList) := ⟨_, rfl⟩
                rw [← hV] at HN
                have HV := Lib.hid hV
                clear hV
                go_wp2_with fail
                refine (HN.out _).mono ?_
                rintro e w9 ⟨rfl, rfl⟩
                go_wp2_with fail
                go_ret2
                refine ⟨?_, by first | exact HB4.out | exact _root_.Go.below_drewN HB4.out _ | exact _root_.Go.below_drewN (_root_.Go.below_drewN HB4.out _) _ | exact _root_.Go.below_drewN (_root_.Go.below_drewN (_root_.Go.below_drewN HB4.out _) _) _⟩
                rw [HCL.out, if_neg (by simp), if_neg (by simp), HTL.out, HV.out]
                unfold tailR
                rw [if_neg (by rw [HF0.out]; simp), if_neg (by rw [HF1.out]; simp), if_neg (by rw [HF2.out]; simp)]
                exact ret2_si rfl (by have := HTs.out; have := HK.out; simp only; rw [size_list]; omega)
    · go_enter Tryz.func86, Tryz.ntmps86
      go_wp2_with fail
      refine (HC.out w).mono ?_
      rintro e w1 ⟨rfl, rfl⟩
      go_wp2_with fail
      rw [← HT.out]
      refine (HB1.out _).mono ?_
      rintro e w2 ⟨rfl, rfl⟩
      go_wp2_with fail
      refine (HB2.out _).mono ?_
      rintro e w3 ⟨rfl, rfl⟩
      go_wp2_with fail
      go_ret2
      refine ⟨?_, Below.refl _ _⟩
      rw [HCL.out]
      exact ret2_si rfl (by simp)
  · go_enter Tryz.func86, Tryz.ntmps86
    go_wp2_with fail
    refine (HC.out w).mono ?_
    rintro e w1 ⟨rfl, rfl⟩
    go_wp2_with fail
    rw [← HT.out]
    refine (HB1.out _).mono ?_
    rintro e w2 ⟨rfl, rfl⟩
    go_wp2_with fail
    go_ret2
    refine ⟨?_, Below.refl _ _⟩
    rw [HCL.out]
    exact ret2_si rfl (by simp)
end Go.Proofs.YtnfccckodgknjaaGreatDoor
