/-
  The document's reader of attributes.
  A token that is stored in a result's block.
  The document's reader of tags.
  ScanTags: the program's readers of attributes and tags are those of the document.
  The frame of the rows that list the table of the controls as well.
-/
import Derived.Test.YtbacdfceiofahaaGreatDoorY46
import Derived.Test.YtbacdfceiofahaaGreatDoorY47
import Derived.Laws.Tables
import Derived.Laws.Rows
import Derived.Test.YtbacdfceiofahaaGreatDoorY30
import Derived.Test.YtbacdfceiofahaaGreatDoorY29
namespace Go.Proofs.YtbacdfceiofahaaGreatDoor
open Go.RowKit Go.Shelf Go.Lib
set_option maxHeartbeats 8000000
set_option maxRecDepth 100000

theorem qSpacesAt2 (s : ByteArray) (j : Nat) (hj : j ≤ s.size) (hs : s.size ≤ 1000000) : ∃ i : Nat, j ≤ i ∧ i ≤ s.size ∧ sk (s.data.toList.drop j) = s.data.toList.drop i ∧
    ∀ W, Calls Tryz.prog 76 #[.string s, .int .i64 j] W fun e w' => e = .returned (.int .i64 (i : Nat)) ∧ w' = W := by
  refine ⟨j + runN (fun b => !spU b) (s.data.toList.drop j), by omega, ?_, ?_, fun W => qSpaces s j hj hs W⟩
  · have := runN_in (fun b => !spU b) s j
    omega
  · unfold sk
    rw [List.drop_drop]

/-- What the document's reader of attributes answers. -/
def QAts (s : ByteArray) (k : Nat) (w : World) (e : Ending) (w' : World) : Prop :=
  ∃ (v : Value) (sc cl : Bool) (N : Nat) (acc : AttL), e = .returned (.tuple #[v, .bool sc, .bool cl, .int .i64 N]) ∧ Below w.heap.size w w' ∧ k ≤ N ∧ N ≤ s.size ∧
      w'.ownsRow w.heap.size 60 3 v acc.length (attrCells acc) ∧ acc.length ≤ s.size ∧
      ((cl = true ∧ atL (refL lgL true) (s.data.toList.drop k) = some (acc, sc, s.data.toList.drop N)) ∨ (cl = false ∧ sc = false ∧ v = .slice none 0 0 ∧ acc = [] ∧ N = s.size ∧ atL (refL lgL true) (s.data.toList.drop k) = none))

theorem attr_eq_at {s : ByteArray} {i kk i2 : Nat} (hi : i < s.size) (hkk : kk = i + 1 + runN eqU (s.data.toList.drop (i + 1))) (hsk : sk (s.data.toList.drop kk) = s.data.toList.drop i2) :
    atRest (s.data.toList.drop (i + 1)) = s.data.toList.drop i2 ∧ nulL (lowL ((s.data.toList.drop i).take (kk - i))) = atName (s[i]'hi) (s.data.toList.drop (i + 1)) := by
  constructor
  · unfold atRest
    rw [List.drop_drop, ← hkk, hsk]
  · unfold atName
    rw [low_nul, drop_byte s i hi, show kk - i = runN eqU (s.data.toList.drop (i + 1)) + 1 by omega, List.take_succ_cons]

theorem ownA_cell {w w' : World} {B b n : Nat} {v : Value} {xs : List Value} (h : w.ownsRow B 60 3 v n xs) (hne : some b ≠ v.ownBlock) (hb : But b w w') : w'.ownsRow B 60 3 v n xs :=
  h.kept hb (by
    rcases h.2 with ⟨rfl, _⟩ | ⟨g, cap, cur, rfl, _⟩
    · exact .inl rfl
    · exact .inr fun e => hne e.symm)
theorem qAttributes (s : ByteArray) (a : Int) (hs : s.size ≤ 100000) (w : World) :
    Calls Tryz.prog 21 #[.string s, .int .i64 a] w (QAts s (clip s a) w) := by
  have HC := Lib.hid (fun W => qClip s a W)
  have hk := clip_le s a
  generalize clip s a = k at HC hk ⊢
  have HK := Lib.hid hk
  have HS := Lib.hid hs
  have HE := Lib.hid (fun (b : UInt8) W => qEnds b W)
  have hz2 : (s.size : Int) ≤ 100000 := by omega
  clear hk hs
  go_enter Tryz.func21, Tryz.ntmps21
  go_wp2_with fail
  refine (HC.out _).mono ?_
  rintro e w1 ⟨rfl, rfl⟩
  go_wp2_with fail
  go_loopg [8, 9] (s.size - k) (fun gn v i wr => ∃ (acc : AttL) (j : Nat), gn = s.size - j ∧ i = .int .i64 j ∧ k ≤ j ∧ j ≤ s.size ∧ acc.length ≤ j ∧ atG (refL lgL true) acc (s.data.toList.drop j) = atL (refL lgL true) (s.data.toList.drop k) ∧ wr.ownsRow w1.heap.size 60 3 v acc.length (attrCells acc) ∧ Below w1.heap.size w1 wr)
  case atStart => exact ⟨[], k, rfl, rfl, Nat.le_refl _, HK.out, Nat.zero_le _, rfl, World.ownsRow_nil _ _ _ _, Below.refl _ _⟩
  case round =>
    obtain ⟨acc, j, hgn, rfl, hkj, hjs, hal, heq, hrow, hbb⟩ := hrel
    obtain ⟨i, hji, his, hsk, hS⟩ := qSpacesAt2 s j hjs (by have := HS.out; omega)
    have HSP := Lib.hid hS
    have hstep := atG_step (refL lgL true) acc (s.data.toList.drop j)
    rw [hsk, heq] at hstep
    have HST := Lib.hid hstep
    have HGN := Lib.hid hgn
    have HKJ := Lib.hid hkj
    have HJI := Lib.hid hji
    have HIS := Lib.hid his
    have HAL := Lib.hid hal
    have HROW := Lib.hid hrow
    have HBB := Lib.hid hbb
    clear hgn hkj hjs hal heq hrow hbb hsk hS hstep hji his
    go_wp2_with fail
    refine (HSP.out _).mono ?_
    rintro e w2 ⟨rfl, rfl⟩
    by_cases hi : i < s.size
    · have dE : ((i : Int) == (s.size : Int)) = false := by rw [beq_eq_false_iff_ne]; omega
      have hiI : (i : Int) < (s.size : Int) := by omega
      have HBY := Lib.hid (drop_byte s i hi)
      by_cases h62 : s[i]'hi = 62
      · have d62 : (((s[i]'hi).toNat : Int) == 62) = true := by rw [h62]; rfl
        have hfin : atL (refL lgL true) (s.data.toList.drop k) = some (acc, false, s.data.toList.drop (i + 1)) := by
          rw [HST.out, HBY.out]
          simp only
          rw [if_pos h62]
        have HF := Lib.hid hfin
        clear hfin h62
        go_wp2_with fail
        refine bodyPost_ret (v := .tuple #[u8, .bool false, .bool true, .int .i64 ((i + 1 : Nat) : Int)]) (by simp [results, Tryz.results21, go_sem]) rfl ⟨u8, false, true, i + 1, acc, rfl, HBB.out, ?_, ?_, HROW.out, ?_, .inl ⟨rfl, HF.out⟩⟩
        all_goals (have := HKJ.out; have := HJI.out; have := HAL.out; have := HIS.out; omega)
      · have d62 : (((s[i]'hi).toNat : Int) == 62) = false := by
          rw [beq_eq_false_iff_ne]
          intro h
          exact h62 (UInt8.toNat_inj.1 (by show (s[i]'hi).toNat = 62; omega))
        by_cases h47 : s[i]'hi = 47
        · have d47 : (((s[i]'hi).toNat : Int) == 47) = true := by rw [h47]; rfl
          by_cases hi1 : i + 1 < s.size
          · have hi1I : (i : Int) + 1 < (s.size : Int) := by omega
            have HBY1 := Lib.hid (drop_byte s (i + 1) hi1)
            by_cases hn : s[i + 1]'hi1 = 62
            · have dn : (((s[i + 1]'hi1).toNat : Int) == 62) = true := by rw [hn]; rfl
              have hfin : atL (refL lgL true) (s.data.toList.drop k) = some (acc, true, s.data.toList.drop (i + 2)) := by
                rw [HST.out, HBY.out]
                simp only
                rw [if_neg h62, if_pos h47, HBY1.out, List.head?_cons, if_pos (by rw [hn]), List.drop_succ_cons, List.drop_zero]
              have HF := Lib.hid hfin
              clear hfin h62 h47 hn
              go_wp2_with fail
              refine bodyPost_ret (v := .tuple #[u8, .bool true, .bool true, .int .i64 ((i + 2 : Nat) : Int)]) (by simp [results, Tryz.results21, go_sem]) rfl ⟨u8, true, true, i + 2, acc, rfl, HBB.out, ?_, ?_, HROW.out, ?_, .inl ⟨rfl, HF.out⟩⟩
              all_goals (have := HKJ.out; have := HJI.out; have := HAL.out; have := HIS.out; omega)
            · have dn : (((s[i + 1]'hi1).toNat : Int) == 62) = false := by
                rw [beq_eq_false_iff_ne]
                intro h
                exact hn (UInt8.toNat_inj.1 (by show (s[i + 1]'hi1).toNat = 62; omega))
              have hst : atG (refL lgL true) acc (s.data.toList.drop (i + 1)) = atL (refL lgL true) (s.data.toList.drop k) := by
                rw [HST.out, HBY.out]
                simp only
                rw [if_neg h62, if_pos h47, if_neg (by rw [HBY1.out, List.head?_cons]; exact fun e => hn (Option.some.inj e))]
              have HF := Lib.hid hst
              clear hst h62 h47 hn
              go_wp2_with fail
              go_roundg (s.size - (i + 1))
              case measure => have := HGN.out; have := HJI.out; omega
              case rel => exact ⟨acc, i + 1, rfl, by go_num, by have := HKJ.out; have := HJI.out; omega, by omega, by have := HAL.out; have := HJI.out; omega, HF.out, HROW.out, HBB.out⟩
          · have hi1I : ¬ (i : Int) + 1 < (s.size : Int) := by omega
            have hst : atG (refL lgL true) acc (s.data.toList.drop (i + 1)) = atL (refL lgL true) (s.data.toList.drop k) := by
              rw [HST.out, HBY.out]
              simp only
              rw [if_neg h62, if_pos h47, if_neg (by rw [drop_end s (i + 1) (by omega)]; simp)]
            have HF := Lib.hid hst
            clear hst h62 h47
            go_wp2_with fail
            go_roundg (s.size - (i + 1))
            case measure => have := HGN.out; have := HJI.out; omega
            case rel => exact ⟨acc, i + 1, rfl, by go_num, by have := HKJ.out; have := HJI.out; omega, by omega, by have := HAL.out; have := HJI.out; omega, HF.out, HROW.out, HBB.out⟩
        · have d47 : (((s[i]'hi).toNat : Int) == 47) = false := by
            rw [beq_eq_false_iff_ne]
            intro h
            exact h47 (UInt8.toNat_inj.1 (by show (s[i]'hi).toNat = 47; omega))
          obtain ⟨kk, hkk⟩ : ∃ kk, kk = i + 1 + runN eqU (s.data.toList.drop (i + 1)) := ⟨_, rfl⟩
          have hrun := runN_in eqU s (i + 1)
          have hkks : kk ≤ s.size := by omega
          obtain ⟨i2, hki2, hi2s, hsk2, hS2⟩ := qSpacesAt2 s kk hkks (by have := HS.out; omega)
          obtain ⟨hrest, hname⟩ := attr_eq_at hi hkk hsk2
          have hst := HST.out
          rw [HBY.out] at hst
          simp only at hst
          rw [if_neg h62, if_neg h47, hrest, ← hname] at hst
          obtain ⟨X, hX⟩ : ∃ X, s.extract i kk = X := ⟨_, rfl⟩
          have hXl : X.data.toList = (s.data.toList.drop i).take (kk - i) := by
            have h := ext_take s i (kk - i) (by omega)
            rw [show i + (kk - i) = kk by omega, hX] at h
            exact h
          have hXs : X.size ≤ 100000 := by have := HS.out; rw [← hX, ByteArray.size_extract]; omega
          have HLO := Lib.hid (fun W => rLower X (by omega) W)
          have hnu := fun W => qNul (lowS X) (by rw [lowS_size]; omega) W
          obtain ⟨NM, hNM⟩ : ∃ V, V = bl (nulL (lowL ((s.data.toList.drop i).take (kk - i)))) := ⟨_, rfl⟩
          obtain ⟨Y, hY⟩ : ∃ Y, Y = bl (lowL ((s.data.toList.drop i).take (kk - i))) := ⟨_, rfl⟩
          rw [lowS_eq, hXl, show (bl (lowL ((s.data.toList.drop i).take (kk - i)))).data.toList = lowL ((s.data.toList.drop i).take (kk - i)) from rfl, ← hNM, ← hY] at hnu
          rw [lowS_eq, hXl, ← hY] at HLO
          have hNMl : NM.data.toList = nulL (lowL ((s.data.toList.drop i).take (kk - i))) := by rw [hNM]; rfl
          rw [← hNMl] at hst
          have HNU := Lib.hid hnu
          have HSTP := Lib.hid hst
          have HS2 := Lib.hid hS2
          have HBS := Lib.hid (fun j h0 h hj => before_stop eqU s (i + 1) j h0 h hj)
          have HAS := Lib.hid (at_stop eqU s (i + 1) hi)
          rw [← hkk] at HAS HBS
          have hkI : (i : Int) ≤ (kk : Int) := by omega
          have hkI2 : (kk : Int) ≤ (s.size : Int) := by omega
          have hikk : i + 1 ≤ kk := by omega
          have HI2S := Lib.hid hi2s
          have HKI2 := Lib.hid hki2
          clear h62 h47 hkk hrun hsk2 hS2 hrest hname hst hXl hXs hnu hNM hY hNMl HST hi2s hki2
          go_wp2_with fail
          go_loop [10] (fun q => ∃ c : Nat, i + 1 ≤ c ∧ c ≤ kk ∧ q = .int .i64 c) (fun q => kk - (intOf q).toNat)
          case atStart => exact ⟨i + 1, Nat.le_refl _, hikk, by go_num⟩
          case round =>
            obtain ⟨c, hc1, hc2, rfl⟩ := hrel
            by_cases hlt : c < kk
            · have hcs : c < s.size := by omega
              have hC : (c : Int) < (s.size : Int) := by omega
              have hb := HBS.out c hc1 hlt hcs
              unfold eqU at hb
              simp only [Bool.or_eq_false_iff, beq_eq_false_iff_ne] at hb
              have dc : (((s[c]'hcs).toNat : Int) != 61) = true := by
                rw [bne_iff_ne]
                intro h
                exact hb.2 (UInt8.toNat_inj.1 (by show (s[c]'hcs).toNat = 61; omega))
              have HSC := Lib.hid (fun W => HE.out (s[c]'hcs) W)
              rw [hb.1] at HSC
              clear hb
              go_wp2_with fail
              refine (HSC.out _).mono ?_
              rintro e w3 ⟨rfl, rfl⟩
              go_wp2_with fail
              go_round
              case rel => exact ⟨c + 1, by omega, by omega, by go_num⟩
              case measure => simp [intOf]; omega
            · have hck : c = kk := by omega
              subst hck
              clear hlt hc2
              rcases HAS.out with hz | ⟨hcs, hst⟩
              · have hC : ¬ (c : Int) < (s.size : Int) := by omega
                have HZ := Lib.hid hz
                clear hz
                go_wp2_with fail
                refine (HLO.out _).mono ?_
                rintro e wl ⟨rfl, hbl⟩
                have hB2 := below_next HBB.out hbl
                have hrow2 := ownA_below HROW.out hbl
                have HBB := Lib.hid hB2
                have HROW := Lib.hid hrow2
                clear hB2 hrow2 hbl
                go_wp2_with fail
                refine (HNU.out _).mono ?_
                rintro e wz ⟨rfl, rfl⟩
                go_wp2_with fail
                generalize hwa : World.alloc _ _ = wa
                have haa : wa.heap[wz.heap.size]? = some (.cells #[.int .i64 0, .string NM, .string ⟨#[]⟩] 60 (0, 0)) := by rw [← hwa]; exact Array.getElem?_push_size
                have hba : Below w1.heap.size w1 wa := by rw [← hwa]; exact below_alloc HBB.out _
                have hrowa : wa.ownsRow w1.heap.size 60 3 u8 acc.length (attrCells acc) := ownA_below HROW.out (by rw [← hwa]; exact below_alloc (Below.refl _ _) _)
                have hga : w1.heap.size ≤ wz.heap.size := HBB.out.size
                have hane : some wz.heap.size ≠ u8.ownBlock := fun e => absurd (HROW.out.lt _ e.symm).2 (Nat.lt_irrefl _)
                clear hwa
                generalize wz.heap.size = ab at haa hga hane ⊢
                have HAA := Lib.hid haa
                have HBW := Lib.hid hba
                have HROW := Lib.hid hrowa
                have HGA := Lib.hid hga
                have HANE := Lib.hid hane
                clear haa hba hrowa hga hane
                refine (HS2.out _).mono ?_
                rintro e wa ⟨rfl, rfl⟩
                have hI2 : ¬ (i2 : Int) < (s.size : Int) := by have := HKI2.out; omega
                have hr : atG (refL lgL true) (addL acc NM.data.toList (ByteArray.mk #[]).data.toList) (s.data.toList.drop i2) = atL (refL lgL true) (s.data.toList.drop k) := by
                  have h := HSTP.out
                  rw [if_neg (by rw [drop_end s i2 (by omega)]; simp)] at h
                  exact h.symm
                have HRES := Lib.hid hr
                have hN1 := HI2S.out
                have hN0 : i + 1 ≤ i2 := by have := HKI2.out; omega
                clear hr
                have ca0 : wa.cell? ⟨ab, 0, none⟩ = some (.int .i64 0) := heap_cell HAA.out 0
                have ca1 : wa.cell? ⟨ab, 1, none⟩ = some (.string NM) := heap_cell HAA.out 1
                have HKN := Lib.hid (qKnown u8 acc NM (by have := HAL.out; have := HJI.out; have := HIS.out; have := HS.out; omega) wa (attrRow_of HROW.out))
                obtain ⟨kn, hkn⟩ : ∃ kn, kn = knownL acc NM.data.toList := ⟨_, rfl⟩
                rw [← hkn] at HKN
                have HKNE := Lib.hid hkn
                clear hkn
                cases kn with
                | true =>
                  go_wp2_with fail
                  refine HKN.out.mono ?_
                  rintro e wk ⟨rfl, hbk⟩
                  go_wp2_with fail
                  go_roundg (s.size - i2)
                  case measure => have := HGN.out; have := HJI.out; omega
                  case rel =>
                    refine ⟨acc, i2, rfl, rfl, ?_, hN1, ?_, ?_, ownA_below HROW.out hbk, below_next HBW.out hbk⟩
                    · have := HKJ.out; have := HJI.out; omega
                    · have := HAL.out; have := HJI.out; omega
                    · rw [← HRES.out, addL_yes _ HKNE.out.symm]
                | false =>
                  go_wp2_with fail
                  refine HKN.out.mono ?_
                  rintro e wk ⟨rfl, hbk⟩
                  have hrowk := ownA_below HROW.out hbk
                  have hak := heap_below HAA.out hbk
                  have cb0 : wk.cell? ⟨ab, 0, none⟩ = some (.int .i64 0) := heap_cell hak 0
                  have cb1 : wk.cell? ⟨ab, 1, none⟩ = some (.string NM) := heap_cell hak 1
                  have cb2 : wk.cell? ⟨ab, 2, none⟩ = some (.string (ByteArray.mk #[])) := heap_cell hak 2
                  have hbelk := below_next HBW.out hbk
                  have hszb : w1.heap.size ≤ wk.heap.size := hbelk.size
                  have HROWK := Lib.hid hrowk
                  have HBK := Lib.hid hbelk
                  have hl1 : acc.length + 1 ≤ 1000001 := by have := HAL.out; have := HJI.out; have := HIS.out; have := HS.out; omega
                  obtain ⟨i0, hi0, hz0, hz1, hz2'⟩ := info_parts info_attr
                  clear hrowk hbelk hak hbk ca0 ca1
                  go_wp2_with (at_builtin; refine wpList_append_own _ rfl _ _ 25 rfl w1.heap.size 60 i0 (.agg #[.int .i64 0, .string ⟨#[]⟩, .string ⟨#[]⟩]) 3 40 Tryz.underlying25 hi0 hz0 hz1 hz2' rfl (by decide) _ _ _ rfl (HROWK.out.alloc _) ⟨wk.heap.size, 0, none⟩ 1 1 [.int .i64 0, .string NM, .string (ByteArray.mk #[])] rfl rfl (three_cell _ _ _ _ _) (three_one _ _) (by unfold maxLen; omega) (by omega) (by simp; omega) ?_; intro v' wc hown' hgrow _; have HOWN := Lib.hid hown'; have HGROW := Lib.hid hgrow; clear hown' hgrow)
                  go_roundg (s.size - i2)
                  case measure => have := HGN.out; have := HJI.out; omega
                  case rel =>
                    have hrow2 := HROWK.out.alloc (.cells #[.int .i64 0, .string NM, .string (ByteArray.mk #[])] 60)
                    refine ⟨acc ++ [(NM.data.toList, ((ByteArray.mk #[])).data.toList)], i2, rfl, rfl, ?_, hN1, ?_, ?_, ?_, ?_⟩
                    · have := HKJ.out; have := HJI.out; omega
                    · have := HAL.out; have := HJI.out; rw [List.length_append]; show acc.length + 1 ≤ _; omega
                    · rw [← HRES.out, addL_no _ HKNE.out.symm]
                    · rw [List.length_append, attrCells_snoc, bl_of, bl_of]
                      exact HOWN.out
                    · exact (below_alloc HBK.out _).grown HGROW.out (by simp; omega) (fun k e => (hrow2.lt k e).1)
              · have hC : (c : Int) < (s.size : Int) := by omega
                have HSC := Lib.hid (fun W => HE.out (s[c]'hcs) W)
                by_cases hen : enU (s[c]'hcs) = true
                · rw [hen] at HSC
                  clear hen hst
                  go_wp2_with fail
                  refine (HSC.out _).mono ?_
                  rintro e w3 ⟨rfl, rfl⟩
                  go_wp2_with fail
                  refine (HLO.out _).mono ?_
                  rintro e wl ⟨rfl, hbl⟩
                  have hB2 := below_next HBB.out hbl
                  have hrow2 := ownA_below HROW.out hbl
                  have HBB := Lib.hid hB2
                  have HROW := Lib.hid hrow2
                  clear hB2 hrow2 hbl
                  go_wp2_with fail
                  refine (HNU.out _).mono ?_
                  rintro e wz ⟨rfl, rfl⟩
                  go_wp2_with fail
                  generalize hwa : World.alloc _ _ = wa
                  have haa : wa.heap[wz.heap.size]? = some (.cells #[.int .i64 0, .string NM, .string ⟨#[]⟩] 60 (0, 0)) := by rw [← hwa]; exact Array.getElem?_push_size
                  have hba : Below w1.heap.size w1 wa := by rw [← hwa]; exact below_alloc HBB.out _
                  have hrowa : wa.ownsRow w1.heap.size 60 3 u8 acc.length (attrCells acc) := ownA_below HROW.out (by rw [← hwa]; exact below_alloc (Below.refl _ _) _)
                  have hga : w1.heap.size ≤ wz.heap.size := HBB.out.size
                  have hane : some wz.heap.size ≠ u8.ownBlock := fun e => absurd (HROW.out.lt _ e.symm).2 (Nat.lt_irrefl _)
                  clear hwa
                  generalize wz.heap.size = ab at haa hga hane ⊢
                  have HAA := Lib.hid haa
                  have HBW := Lib.hid hba
                  have HROW := Lib.hid hrowa
                  have HGA := Lib.hid hga
                  have HANE := Lib.hid hane
                  clear haa hba hrowa hga hane
                  refine (HS2.out _).mono ?_
                  rintro e wa ⟨rfl, rfl⟩
                  by_cases hi2 : i2 < s.size
                  · have hI2 : (i2 : Int) < (s.size : Int) := by omega
                    have hb2 := drop_byte s i2 hi2
                    by_cases h61 : s[i2]'hi2 = 61
                    · have d61 : (((s[i2]'hi2).toNat : Int) == 61) = true := by rw [h61]; rfl
                      have hst := HSTP.out
                      rw [if_pos (by rw [hb2, List.head?_cons, h61]), List.drop_drop] at hst
                      have HST2 := Lib.hid hst
                      have hcl : clip s ((i2 : Int) + 1) = i2 + 1 := clip_nat s (i2 + 1) (by omega)
                      have HV := Lib.hid (fun W => qValue s ((i2 : Int) + 1) HS.out W)
                      rw [hcl] at HV
                      have f2 : wa.frozen? ⟨ab, 2, none⟩ = false := heap_frozen HAA.out 2
                      have c2 : wa.cell? ⟨ab, 2, none⟩ = some (.string ⟨#[]⟩) := heap_cell HAA.out 2
                      clear h61 hb2 hst hcl
                      go_wp2_with fail
                      refine (HV.out _).mono ?_
                      rintro e wv ⟨V, cl, N, rfl, hN1, hor, hbv⟩
                      have hN0 : i + 1 ≤ N := by
                        rcases hor with ⟨rfl, h⟩ | ⟨_, _, h, _⟩
                        · have hl := vaL_len h
                          rw [List.length_drop, List.length_drop, size_list] at hl
                          have := HKI2.out
                          omega
                        · omega
                      have HOR := Lib.hid hor
                      have hBv := below_next HBW.out hbv
                      have hav := heap_below HAA.out hbv
                      have hrowv := ownA_below HROW.out hbv
                      have f2 : wv.frozen? ⟨ab, 2, none⟩ = false := heap_frozen hav 2
                      have c2 : wv.cell? ⟨ab, 2, none⟩ = some (.string ⟨#[]⟩) := heap_cell hav 2
                      have c1 : wv.cell? ⟨ab, 1, none⟩ = some (.string NM) := heap_cell hav 1
                      have c0 : wv.cell? ⟨ab, 0, none⟩ = some (.int .i64 0) := heap_cell hav 0
                      have HAV := Lib.hid hav
                      have HBV := Lib.hid hBv
                      have HROWV := Lib.hid hrowv
                      clear hor hBv hav hrowv hbv
                      cases cl with
                      | false =>
                        have hfin : atL (refL lgL true) (s.data.toList.drop k) = none := by
                          rcases HOR.out with ⟨h, _⟩ | ⟨_, _, _, h⟩
                          · cases h
                          · have h2 := HST2.out
                            rw [h] at h2
                            exact h2
                        have HF := Lib.hid hfin
                        clear hfin
                        go_wp2_with fail
                        refine bodyPost_ret (v := .tuple #[.slice none 0 0, .bool false, .bool false, .int .i64 s.size]) (by simp [results, Tryz.results21, go_sem]) rfl ⟨_, false, false, s.size, [], rfl, HBV.out, ?_, Nat.le_refl _, World.ownsRow_nil _ _ _ _, Nat.zero_le _, .inr ⟨rfl, rfl, rfl, rfl, rfl, HF.out⟩⟩
                        have := HKJ.out; have := HJI.out; have := HIS.out; omega
                      | true =>
                        have hr : atG (refL lgL true) (addL acc NM.data.toList V.data.toList) (s.data.toList.drop N) = atL (refL lgL true) (s.data.toList.drop k) := by
                          rcases HOR.out with ⟨_, h⟩ | ⟨h, _⟩
                          · have h2 := HST2.out
                            rw [h] at h2
                            exact h2.symm
                          · cases h
                        have HRES := Lib.hid hr
                        clear hr
                        go_wp2_with fail
                        generalize hwb : World.setCell _ _ _ = wb
                        have hab : wb.heap[ab]? = some (.cells #[.int .i64 0, .string NM, .string V] 60 (0, 0)) := by rw [← hwb]; exact heap_set HAV.out 2 _
                        have hbut : But ab wv wb := by rw [← hwb]; exact But.set _ _ _ _
                        have hBb : Below w1.heap.size w1 wb := below_but HBV.out hbut HGA.out
                        have hrowb := ownA_cell HROWV.out HANE.out hbut
                        clear hwb hbut
                        have HAA := Lib.hid hab
                        have HBW := Lib.hid hBb
                        have HROW := Lib.hid hrowb
                        clear hab hBb hrowb
                        have ca0 : wb.cell? ⟨ab, 0, none⟩ = some (.int .i64 0) := heap_cell HAA.out 0
                        have ca1 : wb.cell? ⟨ab, 1, none⟩ = some (.string NM) := heap_cell HAA.out 1
                        have HKN := Lib.hid (qKnown u8 acc NM (by have := HAL.out; have := HJI.out; have := HIS.out; have := HS.out; omega) wb (attrRow_of HROW.out))
                        obtain ⟨kn, hkn⟩ : ∃ kn, kn = knownL acc NM.data.toList := ⟨_, rfl⟩
                        rw [← hkn] at HKN
                        have HKNE := Lib.hid hkn
                        clear hkn
                        cases kn with
                        | true =>
                          skip
                          refine HKN.out.mono ?_
                          rintro e wk ⟨rfl, hbk⟩
                          go_wp2_with fail
                          go_roundg (s.size - N)
                          case measure => have := HGN.out; have := HJI.out; omega
                          case rel =>
                            refine ⟨acc, N, rfl, rfl, ?_, hN1, ?_, ?_, ownA_below HROW.out hbk, below_next HBW.out hbk⟩
                            · have := HKJ.out; have := HJI.out; omega
                            · have := HAL.out; have := HJI.out; omega
                            · rw [← HRES.out, addL_yes _ HKNE.out.symm]
                        | false =>
                          skip
                          refine HKN.out.mono ?_
                          rintro e wk ⟨rfl, hbk⟩
                          have hrowk := ownA_below HROW.out hbk
                          have hak := heap_below HAA.out hbk
                          have cb0 : wk.cell? ⟨ab, 0, none⟩ = some (.int .i64 0) := heap_cell hak 0
                          have cb1 : wk.cell? ⟨ab, 1, none⟩ = some (.string NM) := heap_cell hak 1
                          have cb2 : wk.cell? ⟨ab, 2, none⟩ = some (.string V) := heap_cell hak 2
                          have hbelk := below_next HBW.out hbk
                          have hszb : w1.heap.size ≤ wk.heap.size := hbelk.size
                          have HROWK := Lib.hid hrowk
                          have HBK := Lib.hid hbelk
                          have hl1 : acc.length + 1 ≤ 1000001 := by have := HAL.out; have := HJI.out; have := HIS.out; have := HS.out; omega
                          obtain ⟨i0, hi0, hz0, hz1, hz2'⟩ := info_parts info_attr
                          clear hrowk hbelk hak hbk ca0 ca1
                          go_wp2_with (at_builtin; refine wpList_append_own _ rfl _ _ 25 rfl w1.heap.size 60 i0 (.agg #[.int .i64 0, .string ⟨#[]⟩, .string ⟨#[]⟩]) 3 40 Tryz.underlying25 hi0 hz0 hz1 hz2' rfl (by decide) _ _ _ rfl (HROWK.out.alloc _) ⟨wk.heap.size, 0, none⟩ 1 1 [.int .i64 0, .string NM, .string V] rfl rfl (three_cell _ _ _ _ _) (three_one _ _) (by unfold maxLen; omega) (by omega) (by simp; omega) ?_; intro v' wc hown' hgrow _; have HOWN := Lib.hid hown'; have HGROW := Lib.hid hgrow; clear hown' hgrow)
                          go_roundg (s.size - N)
                          case measure => have := HGN.out; have := HJI.out; omega
                          case rel =>
                            have hrow2 := HROWK.out.alloc (.cells #[.int .i64 0, .string NM, .string V] 60)
                            refine ⟨acc ++ [(NM.data.toList, (V).data.toList)], N, rfl, rfl, ?_, hN1, ?_, ?_, ?_, ?_⟩
                            · have := HKJ.out; have := HJI.out; omega
                            · have := HAL.out; have := HJI.out; rw [List.length_append]; show acc.length + 1 ≤ _; omega
                            · rw [← HRES.out, addL_no _ HKNE.out.symm]
                            · rw [List.length_append, attrCells_snoc, bl_of, bl_of]
                              exact HOWN.out
                            · exact (below_alloc HBK.out _).grown HGROW.out (by simp; omega) (fun k e => (hrow2.lt k e).1)
                    · have d61 : (((s[i2]'hi2).toNat : Int) == 61) = false := by
                        rw [beq_eq_false_iff_ne]
                        intro h
                        exact h61 (UInt8.toNat_inj.1 (by show (s[i2]'hi2).toNat = 61; omega))
                      have hr : atG (refL lgL true) (addL acc NM.data.toList (ByteArray.mk #[]).data.toList) (s.data.toList.drop i2) = atL (refL lgL true) (s.data.toList.drop k) := by
                        have h := HSTP.out
                        rw [if_neg (by rw [hb2, List.head?_cons]; exact fun e => h61 (Option.some.inj e))] at h
                        exact h.symm
                      have HRES := Lib.hid hr
                      have hN1 := HI2S.out
                      have hN0 : i + 1 ≤ i2 := by have := HKI2.out; omega
                      clear hr h61 hb2
                      have ca0 : wa.cell? ⟨ab, 0, none⟩ = some (.int .i64 0) := heap_cell HAA.out 0
                      have ca1 : wa.cell? ⟨ab, 1, none⟩ = some (.string NM) := heap_cell HAA.out 1
                      have HKN := Lib.hid (qKnown u8 acc NM (by have := HAL.out; have := HJI.out; have := HIS.out; have := HS.out; omega) wa (attrRow_of HROW.out))
                      obtain ⟨kn, hkn⟩ : ∃ kn, kn = knownL acc NM.data.toList := ⟨_, rfl⟩
                      rw [← hkn] at HKN
                      have HKNE := Lib.hid hkn
                      clear hkn
                      cases kn with
                      | true =>
                        go_wp2_with fail
                        refine HKN.out.mono ?_
                        rintro e wk ⟨rfl, hbk⟩
                        go_wp2_with fail
                        go_roundg (s.size - i2)
                        case measure => have := HGN.out; have := HJI.out; omega
                        case rel =>
                          refine ⟨acc, i2, rfl, rfl, ?_, hN1, ?_, ?_, ownA_below HROW.out hbk, below_next HBW.out hbk⟩
                          · have := HKJ.out; have := HJI.out; omega
                          · have := HAL.out; have := HJI.out; omega
                          · rw [← HRES.out, addL_yes _ HKNE.out.symm]
                      | false =>
                        go_wp2_with fail
                        refine HKN.out.mono ?_
                        rintro e wk ⟨rfl, hbk⟩
                        have hrowk := ownA_below HROW.out hbk
                        have hak := heap_below HAA.out hbk
                        have cb0 : wk.cell? ⟨ab, 0, none⟩ = some (.int .i64 0) := heap_cell hak 0
                        have cb1 : wk.cell? ⟨ab, 1, none⟩ = some (.string NM) := heap_cell hak 1
                        have cb2 : wk.cell? ⟨ab, 2, none⟩ = some (.string (ByteArray.mk #[])) := heap_cell hak 2
                        have hbelk := below_next HBW.out hbk
                        have hszb : w1.heap.size ≤ wk.heap.size := hbelk.size
                        have HROWK := Lib.hid hrowk
                        have HBK := Lib.hid hbelk
                        have hl1 : acc.length + 1 ≤ 1000001 := by have := HAL.out; have := HJI.out; have := HIS.out; have := HS.out; omega
                        obtain ⟨i0, hi0, hz0, hz1, hz2'⟩ := info_parts info_attr
                        clear hrowk hbelk hak hbk ca0 ca1
                        go_wp2_with (at_builtin; refine wpList_append_own _ rfl _ _ 25 rfl w1.heap.size 60 i0 (.agg #[.int .i64 0, .string ⟨#[]⟩, .string ⟨#[]⟩]) 3 40 Tryz.underlying25 hi0 hz0 hz1 hz2' rfl (by decide) _ _ _ rfl (HROWK.out.alloc _) ⟨wk.heap.size, 0, none⟩ 1 1 [.int .i64 0, .string NM, .string (ByteArray.mk #[])] rfl rfl (three_cell _ _ _ _ _) (three_one _ _) (by unfold maxLen; omega) (by omega) (by simp; omega) ?_; intro v' wc hown' hgrow _; have HOWN := Lib.hid hown'; have HGROW := Lib.hid hgrow; clear hown' hgrow)
                        go_roundg (s.size - i2)
                        case measure => have := HGN.out; have := HJI.out; omega
                        case rel =>
                          have hrow2 := HROWK.out.alloc (.cells #[.int .i64 0, .string NM, .string (ByteArray.mk #[])] 60)
                          refine ⟨acc ++ [(NM.data.toList, ((ByteArray.mk #[])).data.toList)], i2, rfl, rfl, ?_, hN1, ?_, ?_, ?_, ?_⟩
                          · have := HKJ.out; have := HJI.out; omega
                          · have := HAL.out; have := HJI.out; rw [List.length_append]; show acc.length + 1 ≤ _; omega
                          · rw [← HRES.out, addL_no _ HKNE.out.symm]
                          · rw [List.length_append, attrCells_snoc, bl_of, bl_of]
                            exact HOWN.out
                          · exact (below_alloc HBK.out _).grown HGROW.out (by simp; omega) (fun k e => (hrow2.lt k e).1)
                  · have hI2 : ¬ (i2 : Int) < (s.size : Int) := by omega
                    have hr : atG (refL lgL true) (addL acc NM.data.toList (ByteArray.mk #[]).data.toList) (s.data.toList.drop i2) = atL (refL lgL true) (s.data.toList.drop k) := by
                      have h := HSTP.out
                      rw [if_neg (by rw [drop_end s i2 (by omega)]; simp)] at h
                      exact h.symm
                    have HRES := Lib.hid hr
                    have hN1 := HI2S.out
                    have hN0 : i + 1 ≤ i2 := by have := HKI2.out; omega
                    clear hr
                    have ca0 : wa.cell? ⟨ab, 0, none⟩ = some (.int .i64 0) := heap_cell HAA.out 0
                    have ca1 : wa.cell? ⟨ab, 1, none⟩ = some (.string NM) := heap_cell HAA.out 1
                    have HKN := Lib.hid (qKnown u8 acc NM (by have := HAL.out; have := HJI.out; have := HIS.out; have := HS.out; omega) wa (attrRow_of HROW.out))
                    obtain ⟨kn, hkn⟩ : ∃ kn, kn = knownL acc NM.data.toList := ⟨_, rfl⟩
                    rw [← hkn] at HKN
                    have HKNE := Lib.hid hkn
                    clear hkn
                    cases kn with
                    | true =>
                      go_wp2_with fail
                      refine HKN.out.mono ?_
                      rintro e wk ⟨rfl, hbk⟩
                      go_wp2_with fail
                      go_roundg (s.size - i2)
                      case measure => have := HGN.out; have := HJI.out; omega
                      case rel =>
                        refine ⟨acc, i2, rfl, rfl, ?_, hN1, ?_, ?_, ownA_below HROW.out hbk, below_next HBW.out hbk⟩
                        · have := HKJ.out; have := HJI.out; omega
                        · have := HAL.out; have := HJI.out; omega
                        · rw [← HRES.out, addL_yes _ HKNE.out.symm]
                    | false =>
                      go_wp2_with fail
                      refine HKN.out.mono ?_
                      rintro e wk ⟨rfl, hbk⟩
                      have hrowk := ownA_below HROW.out hbk
                      have hak := heap_below HAA.out hbk
                      have cb0 : wk.cell? ⟨ab, 0, none⟩ = some (.int .i64 0) := heap_cell hak 0
                      have cb1 : wk.cell? ⟨ab, 1, none⟩ = some (.string NM) := heap_cell hak 1
                      have cb2 : wk.cell? ⟨ab, 2, none⟩ = some (.string (ByteArray.mk #[])) := heap_cell hak 2
                      have hbelk := below_next HBW.out hbk
                      have hszb : w1.heap.size ≤ wk.heap.size := hbelk.size
                      have HROWK := Lib.hid hrowk
                      have HBK := Lib.hid hbelk
                      have hl1 : acc.length + 1 ≤ 1000001 := by have := HAL.out; have := HJI.out; have := HIS.out; have := HS.out; omega
                      obtain ⟨i0, hi0, hz0, hz1, hz2'⟩ := info_parts info_attr
                      clear hrowk hbelk hak hbk ca0 ca1
                      go_wp2_with (at_builtin; refine wpList_append_own _ rfl _ _ 25 rfl w1.heap.size 60 i0 (.agg #[.int .i64 0, .string ⟨#[]⟩, .string ⟨#[]⟩]) 3 40 Tryz.underlying25 hi0 hz0 hz1 hz2' rfl (by decide) _ _ _ rfl (HROWK.out.alloc _) ⟨wk.heap.size, 0, none⟩ 1 1 [.int .i64 0, .string NM, .string (ByteArray.mk #[])] rfl rfl (three_cell _ _ _ _ _) (three_one _ _) (by unfold maxLen; omega) (by omega) (by simp; omega) ?_; intro v' wc hown' hgrow _; have HOWN := Lib.hid hown'; have HGROW := Lib.hid hgrow; clear hown' hgrow)
                      go_roundg (s.size - i2)
                      case measure => have := HGN.out; have := HJI.out; omega
                      case rel =>
                        have hrow2 := HROWK.out.alloc (.cells #[.int .i64 0, .string NM, .string (ByteArray.mk #[])] 60)
                        refine ⟨acc ++ [(NM.data.toList, ((ByteArray.mk #[])).data.toList)], i2, rfl, rfl, ?_, hN1, ?_, ?_, ?_, ?_⟩
                        · have := HKJ.out; have := HJI.out; omega
                        · have := HAL.out; have := HJI.out; rw [List.length_append]; show acc.length + 1 ≤ _; omega
                        · rw [← HRES.out, addL_no _ HKNE.out.symm]
                        · rw [List.length_append, attrCells_snoc, bl_of, bl_of]
                          exact HOWN.out
                        · exact (below_alloc HBK.out _).grown HGROW.out (by simp; omega) (fun k e => (hrow2.lt k e).1)
                · have hen2 : enU (s[c]'hcs) = false := by simpa using hen
                  rw [hen2] at HSC
                  have dc : (((s[c]'hcs).toNat : Int) != 61) = false := by
                    unfold eqU at hst
                    simp only [Bool.or_eq_true, beq_iff_eq] at hst
                    rcases hst with h | h
                    · exact absurd h hen
                    · rw [h]; rfl
                  clear hen hen2 hst
                  go_wp2_with fail
                  refine (HSC.out _).mono ?_
                  rintro e w3 ⟨rfl, rfl⟩
                  go_wp2_with fail
                  refine (HLO.out _).mono ?_
                  rintro e wl ⟨rfl, hbl⟩
                  have hB2 := below_next HBB.out hbl
                  have hrow2 := ownA_below HROW.out hbl
                  have HBB := Lib.hid hB2
                  have HROW := Lib.hid hrow2
                  clear hB2 hrow2 hbl
                  go_wp2_with fail
                  refine (HNU.out _).mono ?_
                  rintro e wz ⟨rfl, rfl⟩
                  go_wp2_with fail
                  generalize hwa : World.alloc _ _ = wa
                  have haa : wa.heap[wz.heap.size]? = some (.cells #[.int .i64 0, .string NM, .string ⟨#[]⟩] 60 (0, 0)) := by rw [← hwa]; exact Array.getElem?_push_size
                  have hba : Below w1.heap.size w1 wa := by rw [← hwa]; exact below_alloc HBB.out _
                  have hrowa : wa.ownsRow w1.heap.size 60 3 u8 acc.length (attrCells acc) := ownA_below HROW.out (by rw [← hwa]; exact below_alloc (Below.refl _ _) _)
                  have hga : w1.heap.size ≤ wz.heap.size := HBB.out.size
                  have hane : some wz.heap.size ≠ u8.ownBlock := fun e => absurd (HROW.out.lt _ e.symm).2 (Nat.lt_irrefl _)
                  clear hwa
                  generalize wz.heap.size = ab at haa hga hane ⊢
                  have HAA := Lib.hid haa
                  have HBW := Lib.hid hba
                  have HROW := Lib.hid hrowa
                  have HGA := Lib.hid hga
                  have HANE := Lib.hid hane
                  clear haa hba hrowa hga hane
                  refine (HS2.out _).mono ?_
                  rintro e wa ⟨rfl, rfl⟩
                  by_cases hi2 : i2 < s.size
                  · have hI2 : (i2 : Int) < (s.size : Int) := by omega
                    have hb2 := drop_byte s i2 hi2
                    by_cases h61 : s[i2]'hi2 = 61
                    · have d61 : (((s[i2]'hi2).toNat : Int) == 61) = true := by rw [h61]; rfl
                      have hst := HSTP.out
                      rw [if_pos (by rw [hb2, List.head?_cons, h61]), List.drop_drop] at hst
                      have HST2 := Lib.hid hst
                      have hcl : clip s ((i2 : Int) + 1) = i2 + 1 := clip_nat s (i2 + 1) (by omega)
                      have HV := Lib.hid (fun W => qValue s ((i2 : Int) + 1) HS.out W)
                      rw [hcl] at HV
                      have f2 : wa.frozen? ⟨ab, 2, none⟩ = false := heap_frozen HAA.out 2
                      have c2 : wa.cell? ⟨ab, 2, none⟩ = some (.string ⟨#[]⟩) := heap_cell HAA.out 2
                      clear h61 hb2 hst hcl
                      go_wp2_with fail
                      refine (HV.out _).mono ?_
                      rintro e wv ⟨V, cl, N, rfl, hN1, hor, hbv⟩
                      have hN0 : i + 1 ≤ N := by
                        rcases hor with ⟨rfl, h⟩ | ⟨_, _, h, _⟩
                        · have hl := vaL_len h
                          rw [List.length_drop, List.length_drop, size_list] at hl
                          have := HKI2.out
                          omega
                        · omega
                      have HOR := Lib.hid hor
                      have hBv := below_next HBW.out hbv
                      have hav := heap_below HAA.out hbv
                      have hrowv := ownA_below HROW.out hbv
                      have f2 : wv.frozen? ⟨ab, 2, none⟩ = false := heap_frozen hav 2
                      have c2 : wv.cell? ⟨ab, 2, none⟩ = some (.string ⟨#[]⟩) := heap_cell hav 2
                      have c1 : wv.cell? ⟨ab, 1, none⟩ = some (.string NM) := heap_cell hav 1
                      have c0 : wv.cell? ⟨ab, 0, none⟩ = some (.int .i64 0) := heap_cell hav 0
                      have HAV := Lib.hid hav
                      have HBV := Lib.hid hBv
                      have HROWV := Lib.hid hrowv
                      clear hor hBv hav hrowv hbv
                      cases cl with
                      | false =>
                        have hfin : atL (refL lgL true) (s.data.toList.drop k) = none := by
                          rcases HOR.out with ⟨h, _⟩ | ⟨_, _, _, h⟩
                          · cases h
                          · have h2 := HST2.out
                            rw [h] at h2
                            exact h2
                        have HF := Lib.hid hfin
                        clear hfin
                        go_wp2_with fail
                        refine bodyPost_ret (v := .tuple #[.slice none 0 0, .bool false, .bool false, .int .i64 s.size]) (by simp [results, Tryz.results21, go_sem]) rfl ⟨_, false, false, s.size, [], rfl, HBV.out, ?_, Nat.le_refl _, World.ownsRow_nil _ _ _ _, Nat.zero_le _, .inr ⟨rfl, rfl, rfl, rfl, rfl, HF.out⟩⟩
                        have := HKJ.out; have := HJI.out; have := HIS.out; omega
                      | true =>
                        have hr : atG (refL lgL true) (addL acc NM.data.toList V.data.toList) (s.data.toList.drop N) = atL (refL lgL true) (s.data.toList.drop k) := by
                          rcases HOR.out with ⟨_, h⟩ | ⟨h, _⟩
                          · have h2 := HST2.out
                            rw [h] at h2
                            exact h2.symm
                          · cases h
                        have HRES := Lib.hid hr
                        clear hr
                        go_wp2_with fail
                        generalize hwb : World.setCell _ _ _ = wb
                        have hab : wb.heap[ab]? = some (.cells #[.int .i64 0, .string NM, .string V] 60 (0, 0)) := by rw [← hwb]; exact heap_set HAV.out 2 _
                        have hbut : But ab wv wb := by rw [← hwb]; exact But.set _ _ _ _
                        have hBb : Below w1.heap.size w1 wb := below_but HBV.out hbut HGA.out
                        have hrowb := ownA_cell HROWV.out HANE.out hbut
                        clear hwb hbut
                        have HAA := Lib.hid hab
                        have HBW := Lib.hid hBb
                        have HROW := Lib.hid hrowb
                        clear hab hBb hrowb
                        have ca0 : wb.cell? ⟨ab, 0, none⟩ = some (.int .i64 0) := heap_cell HAA.out 0
                        have ca1 : wb.cell? ⟨ab, 1, none⟩ = some (.string NM) := heap_cell HAA.out 1
                        have HKN := Lib.hid (qKnown u8 acc NM (by have := HAL.out; have := HJI.out; have := HIS.out; have := HS.out; omega) wb (attrRow_of HROW.out))
                        obtain ⟨kn, hkn⟩ : ∃ kn, kn = knownL acc NM.data.toList := ⟨_, rfl⟩
                        rw [← hkn] at HKN
                        have HKNE := Lib.hid hkn
                        clear hkn
                        cases kn with
                        | true =>
                          skip
                          refine HKN.out.mono ?_
                          rintro e wk ⟨rfl, hbk⟩
                          go_wp2_with fail
                          go_roundg (s.size - N)
                          case measure => have := HGN.out; have := HJI.out; omega
                          case rel =>
                            refine ⟨acc, N, rfl, rfl, ?_, hN1, ?_, ?_, ownA_below HROW.out hbk, below_next HBW.out hbk⟩
                            · have := HKJ.out; have := HJI.out; omega
                            · have := HAL.out; have := HJI.out; omega
                            · rw [← HRES.out, addL_yes _ HKNE.out.symm]
                        | false =>
                          skip
                          refine HKN.out.mono ?_
                          rintro e wk ⟨rfl, hbk⟩
                          have hrowk := ownA_below HROW.out hbk
                          have hak := heap_below HAA.out hbk
                          have cb0 : wk.cell? ⟨ab, 0, none⟩ = some (.int .i64 0) := heap_cell hak 0
                          have cb1 : wk.cell? ⟨ab, 1, none⟩ = some (.string NM) := heap_cell hak 1
                          have cb2 : wk.cell? ⟨ab, 2, none⟩ = some (.string V) := heap_cell hak 2
                          have hbelk := below_next HBW.out hbk
                          have hszb : w1.heap.size ≤ wk.heap.size := hbelk.size
                          have HROWK := Lib.hid hrowk
                          have HBK := Lib.hid hbelk
                          have hl1 : acc.length + 1 ≤ 1000001 := by have := HAL.out; have := HJI.out; have := HIS.out; have := HS.out; omega
                          obtain ⟨i0, hi0, hz0, hz1, hz2'⟩ := info_parts info_attr
                          clear hrowk hbelk hak hbk ca0 ca1
                          go_wp2_with (at_builtin; refine wpList_append_own _ rfl _ _ 25 rfl w1.heap.size 60 i0 (.agg #[.int .i64 0, .string ⟨#[]⟩, .string ⟨#[]⟩]) 3 40 Tryz.underlying25 hi0 hz0 hz1 hz2' rfl (by decide) _ _ _ rfl (HROWK.out.alloc _) ⟨wk.heap.size, 0, none⟩ 1 1 [.int .i64 0, .string NM, .string V] rfl rfl (three_cell _ _ _ _ _) (three_one _ _) (by unfold maxLen; omega) (by omega) (by simp; omega) ?_; intro v' wc hown' hgrow _; have HOWN := Lib.hid hown'; have HGROW := Lib.hid hgrow; clear hown' hgrow)
                          go_roundg (s.size - N)
                          case measure => have := HGN.out; have := HJI.out; omega
                          case rel =>
                            have hrow2 := HROWK.out.alloc (.cells #[.int .i64 0, .string NM, .string V] 60)
                            refine ⟨acc ++ [(NM.data.toList, (V).data.toList)], N, rfl, rfl, ?_, hN1, ?_, ?_, ?_, ?_⟩
                            · have := HKJ.out; have := HJI.out; omega
                            · have := HAL.out; have := HJI.out; rw [List.length_append]; show acc.length + 1 ≤ _; omega
                            · rw [← HRES.out, addL_no _ HKNE.out.symm]
                            · rw [List.length_append, attrCells_snoc, bl_of, bl_of]
                              exact HOWN.out
                            · exact (below_alloc HBK.out _).grown HGROW.out (by simp; omega) (fun k e => (hrow2.lt k e).1)
                    · have d61 : (((s[i2]'hi2).toNat : Int) == 61) = false := by
                        rw [beq_eq_false_iff_ne]
                        intro h
                        exact h61 (UInt8.toNat_inj.1 (by show (s[i2]'hi2).toNat = 61; omega))
                      have hr : atG (refL lgL true) (addL acc NM.data.toList (ByteArray.mk #[]).data.toList) (s.data.toList.drop i2) = atL (refL lgL true) (s.data.toList.drop k) := by
                        have h := HSTP.out
                        rw [if_neg (by rw [hb2, List.head?_cons]; exact fun e => h61 (Option.some.inj e))] at h
                        exact h.symm
                      have HRES := Lib.hid hr
                      have hN1 := HI2S.out
                      have hN0 : i + 1 ≤ i2 := by have := HKI2.out; omega
                      clear hr h61 hb2
                      have ca0 : wa.cell? ⟨ab, 0, none⟩ = some (.int .i64 0) := heap_cell HAA.out 0
                      have ca1 : wa.cell? ⟨ab, 1, none⟩ = some (.string NM) := heap_cell HAA.out 1
                      have HKN := Lib.hid (qKnown u8 acc NM (by have := HAL.out; have := HJI.out; have := HIS.out; have := HS.out; omega) wa (attrRow_of HROW.out))
                      obtain ⟨kn, hkn⟩ : ∃ kn, kn = knownL acc NM.data.toList := ⟨_, rfl⟩
                      rw [← hkn] at HKN
                      have HKNE := Lib.hid hkn
                      clear hkn
                      cases kn with
                      | true =>
                        go_wp2_with fail
                        refine HKN.out.mono ?_
                        rintro e wk ⟨rfl, hbk⟩
                        go_wp2_with fail
                        go_roundg (s.size - i2)
                        case measure => have := HGN.out; have := HJI.out; omega
                        case rel =>
                          refine ⟨acc, i2, rfl, rfl, ?_, hN1, ?_, ?_, ownA_below HROW.out hbk, below_next HBW.out hbk⟩
                          · have := HKJ.out; have := HJI.out; omega
                          · have := HAL.out; have := HJI.out; omega
                          · rw [← HRES.out, addL_yes _ HKNE.out.symm]
                      | false =>
                        go_wp2_with fail
                        refine HKN.out.mono ?_
                        rintro e wk ⟨rfl, hbk⟩
                        have hrowk := ownA_below HROW.out hbk
                        have hak := heap_below HAA.out hbk
                        have cb0 : wk.cell? ⟨ab, 0, none⟩ = some (.int .i64 0) := heap_cell hak 0
                        have cb1 : wk.cell? ⟨ab, 1, none⟩ = some (.string NM) := heap_cell hak 1
                        have cb2 : wk.cell? ⟨ab, 2, none⟩ = some (.string (ByteArray.mk #[])) := heap_cell hak 2
                        have hbelk := below_next HBW.out hbk
                        have hszb : w1.heap.size ≤ wk.heap.size := hbelk.size
                        have HROWK := Lib.hid hrowk
                        have HBK := Lib.hid hbelk
                        have hl1 : acc.length + 1 ≤ 1000001 := by have := HAL.out; have := HJI.out; have := HIS.out; have := HS.out; omega
                        obtain ⟨i0, hi0, hz0, hz1, hz2'⟩ := info_parts info_attr
                        clear hrowk hbelk hak hbk ca0 ca1
                        go_wp2_with (at_builtin; refine wpList_append_own _ rfl _ _ 25 rfl w1.heap.size 60 i0 (.agg #[.int .i64 0, .string ⟨#[]⟩, .string ⟨#[]⟩]) 3 40 Tryz.underlying25 hi0 hz0 hz1 hz2' rfl (by decide) _ _ _ rfl (HROWK.out.alloc _) ⟨wk.heap.size, 0, none⟩ 1 1 [.int .i64 0, .string NM, .string (ByteArray.mk #[])] rfl rfl (three_cell _ _ _ _ _) (three_one _ _) (by unfold maxLen; omega) (by omega) (by simp; omega) ?_; intro v' wc hown' hgrow _; have HOWN := Lib.hid hown'; have HGROW := Lib.hid hgrow; clear hown' hgrow)
                        go_roundg (s.size - i2)
                        case measure => have := HGN.out; have := HJI.out; omega
                        case rel =>
                          have hrow2 := HROWK.out.alloc (.cells #[.int .i64 0, .string NM, .string (ByteArray.mk #[])] 60)
                          refine ⟨acc ++ [(NM.data.toList, ((ByteArray.mk #[])).data.toList)], i2, rfl, rfl, ?_, hN1, ?_, ?_, ?_, ?_⟩
                          · have := HKJ.out; have := HJI.out; omega
                          · have := HAL.out; have := HJI.out; rw [List.length_append]; show acc.length + 1 ≤ _; omega
                          · rw [← HRES.out, addL_no _ HKNE.out.symm]
                          · rw [List.length_append, attrCells_snoc, bl_of, bl_of]
                            exact HOWN.out
                          · exact (below_alloc HBK.out _).grown HGROW.out (by simp; omega) (fun k e => (hrow2.lt k e).1)
                  · have hI2 : ¬ (i2 : Int) < (s.size : Int) := by omega
                    have hr : atG (refL lgL true) (addL acc NM.data.toList (ByteArray.mk #[]).data.toList) (s.data.toList.drop i2) = atL (refL lgL true) (s.data.toList.drop k) := by
                      have h := HSTP.out
                      rw [if_neg (by rw [drop_end s i2 (by omega)]; simp)] at h
                      exact h.symm
                    have HRES := Lib.hid hr
                    have hN1 := HI2S.out
                    have hN0 : i + 1 ≤ i2 := by have := HKI2.out; omega
                    clear hr
                    have ca0 : wa.cell? ⟨ab, 0, none⟩ = some (.int .i64 0) := heap_cell HAA.out 0
                    have ca1 : wa.cell? ⟨ab, 1, none⟩ = some (.string NM) := heap_cell HAA.out 1
                    have HKN := Lib.hid (qKnown u8 acc NM (by have := HAL.out; have := HJI.out; have := HIS.out; have := HS.out; omega) wa (attrRow_of HROW.out))
                    obtain ⟨kn, hkn⟩ : ∃ kn, kn = knownL acc NM.data.toList := ⟨_, rfl⟩
                    rw [← hkn] at HKN
                    have HKNE := Lib.hid hkn
                    clear hkn
                    cases kn with
                    | true =>
                      go_wp2_with fail
                      refine HKN.out.mono ?_
                      rintro e wk ⟨rfl, hbk⟩
                      go_wp2_with fail
                      go_roundg (s.size - i2)
                      case measure => have := HGN.out; have := HJI.out; omega
                      case rel =>
                        refine ⟨acc, i2, rfl, rfl, ?_, hN1, ?_, ?_, ownA_below HROW.out hbk, below_next HBW.out hbk⟩
                        · have := HKJ.out; have := HJI.out; omega
                        · have := HAL.out; have := HJI.out; omega
                        · rw [← HRES.out, addL_yes _ HKNE.out.symm]
                    | false =>
                      go_wp2_with fail
                      refine HKN.out.mono ?_
                      rintro e wk ⟨rfl, hbk⟩
                      have hrowk := ownA_below HROW.out hbk
                      have hak := heap_below HAA.out hbk
                      have cb0 : wk.cell? ⟨ab, 0, none⟩ = some (.int .i64 0) := heap_cell hak 0
                      have cb1 : wk.cell? ⟨ab, 1, none⟩ = some (.string NM) := heap_cell hak 1
                      have cb2 : wk.cell? ⟨ab, 2, none⟩ = some (.string (ByteArray.mk #[])) := heap_cell hak 2
                      have hbelk := below_next HBW.out hbk
                      have hszb : w1.heap.size ≤ wk.heap.size := hbelk.size
                      have HROWK := Lib.hid hrowk
                      have HBK := Lib.hid hbelk
                      have hl1 : acc.length + 1 ≤ 1000001 := by have := HAL.out; have := HJI.out; have := HIS.out; have := HS.out; omega
                      obtain ⟨i0, hi0, hz0, hz1, hz2'⟩ := info_parts info_attr
                      clear hrowk hbelk hak hbk ca0 ca1
                      go_wp2_with (at_builtin; refine wpList_append_own _ rfl _ _ 25 rfl w1.heap.size 60 i0 (.agg #[.int .i64 0, .string ⟨#[]⟩, .string ⟨#[]⟩]) 3 40 Tryz.underlying25 hi0 hz0 hz1 hz2' rfl (by decide) _ _ _ rfl (HROWK.out.alloc _) ⟨wk.heap.size, 0, none⟩ 1 1 [.int .i64 0, .string NM, .string (ByteArray.mk #[])] rfl rfl (three_cell _ _ _ _ _) (three_one _ _) (by unfold maxLen; omega) (by omega) (by simp; omega) ?_; intro v' wc hown' hgrow _; have HOWN := Lib.hid hown'; have HGROW := Lib.hid hgrow; clear hown' hgrow)
                      go_roundg (s.size - i2)
                      case measure => have := HGN.out; have := HJI.out; omega
                      case rel =>
                        have hrow2 := HROWK.out.alloc (.cells #[.int .i64 0, .string NM, .string (ByteArray.mk #[])] 60)
                        refine ⟨acc ++ [(NM.data.toList, ((ByteArray.mk #[])).data.toList)], i2, rfl, rfl, ?_, hN1, ?_, ?_, ?_, ?_⟩
                        · have := HKJ.out; have := HJI.out; omega
                        · have := HAL.out; have := HJI.out; rw [List.length_append]; show acc.length + 1 ≤ _; omega
                        · rw [← HRES.out, addL_no _ HKNE.out.symm]
                        · rw [List.length_append, attrCells_snoc, bl_of, bl_of]
                          exact HOWN.out
                        · exact (below_alloc HBK.out _).grown HGROW.out (by simp; omega) (fun k e => (hrow2.lt k e).1)
    · have dE : ((i : Int) == (s.size : Int)) = true := by rw [beq_iff_eq]; have := HIS.out; omega
      have hiz : i = s.size := by have := HIS.out; omega
      have hfin : atL (refL lgL true) (s.data.toList.drop k) = none := by
        rw [HST.out, drop_end s i (by omega)]
      have HF := Lib.hid hfin
      have HIZ := Lib.hid hiz
      clear hfin hiz
      go_wp2_with fail
      refine bodyPost_ret (v := .tuple #[.slice none 0 0, .bool false, .bool false, .int .i64 i]) (by simp [results, Tryz.results21, go_sem]) rfl ⟨_, false, false, i, [], rfl, HBB.out, ?_, HIS.out, World.ownsRow_nil _ _ _ _, Nat.zero_le _, .inr ⟨rfl, rfl, rfl, rfl, HIZ.out, HF.out⟩⟩
      have := HKJ.out; have := HJI.out; omega
end Go.Proofs.YtbacdfceiofahaaGreatDoor

namespace Go.Proofs.YtbacdfceiofahaaGreatDoor
open Go.RowKit Go.Shelf Go.Lib
set_option maxHeartbeats 4000000
set_option maxRecDepth 100000

theorem TokAt.frz {w : World} {g : Nat} {cs : Array Value} (h : TokAt w g cs) : w.frozen? ⟨g, 0, none⟩ = false ∧ w.frozen? ⟨g, 1, none⟩ = false ∧ w.frozen? ⟨g, 2, none⟩ = false ∧ w.frozen? ⟨g, 3, none⟩ = false ∧ w.frozen? ⟨g, 4, none⟩ = false ∧ w.frozen? ⟨g, 5, none⟩ = false ∧ w.frozen? ⟨g, 6, none⟩ = false ∧ w.frozen? ⟨g, 7, none⟩ = false ∧ w.frozen? ⟨g, 8, none⟩ = false ∧ w.frozen? ⟨g, 9, none⟩ = false ∧ w.frozen? ⟨g, 10, none⟩ = false ∧ w.frozen? ⟨g, 11, none⟩ = false :=
  ⟨h.frozen 0, h.frozen 1, h.frozen 2, h.frozen 3, h.frozen 4, h.frozen 5, h.frozen 6, h.frozen 7, h.frozen 8, h.frozen 9, h.frozen 10, h.frozen 11⟩
/-- The empty token. -/
def tok0 : Array Value := #[.int .i64 0, .string ⟨#[]⟩, .bool false, .string ⟨#[]⟩, .bool false, .string ⟨#[]⟩, .bool false, .bool false, .slice none 0 0, .bool false, .string ⟨#[]⟩, .int .i32 0]
theorem retW {w W : World} {r : Nat} (hR : TokAt W r tok0) (hb : Below w.heap.size w W) (hr : w.heap.size ≤ r) (v0 v1 v2 v3 v4 v5 v6 v7 v8 v9 v10 v11 : Value) :
    ∃ w3, (((((((((((((W.setCell ⟨r, 0, none⟩ v0).setCell ⟨r, 1, none⟩ v1).setCell ⟨r, 2, none⟩ v2).setCell ⟨r, 3, none⟩ v3).setCell ⟨r, 4, none⟩ v4).setCell ⟨r, 5, none⟩ v5).setCell ⟨r, 6, none⟩ v6).setCell ⟨r, 7, none⟩ v7).setCell ⟨r, 8, none⟩ v8).setCell ⟨r, 9, none⟩ v9).setCell ⟨r, 10, none⟩ v10).setCell ⟨r, 11, none⟩ v11) = w3) ∧ TokAt w3 r #[v0, v1, v2, v3, v4, v5, v6, v7, v8, v9, v10, v11] ∧ Below w.heap.size w w3 ∧ But r W w3 :=
  ⟨_, rfl, st12_heap hR v0 v1 v2 v3 v4 v5 v6 v7 v8 v9 v10 v11, below_but hb (st12_but W r v0 v1 v2 v3 v4 v5 v6 v7 v8 v9 v10 v11) hr, st12_but W r v0 v1 v2 v3 v4 v5 v6 v7 v8 v9 v10 v11⟩
theorem retW2 {w W : World} {r : Nat} {c0 c1 c2 c3 c4 c5 c6 c7 c8 c9 c10 c11 : Value} (hR : TokAt W r #[c0, c1, c2, c3, c4, c5, c6, c7, c8, c9, c10, c11]) (hb : Below w.heap.size w W) (hr : w.heap.size ≤ r) (v0 v1 v2 v3 v4 v5 v6 v7 v8 v9 v10 v11 : Value) :
    ∃ w3, (((((((((((((W.setCell ⟨r, 0, none⟩ v0).setCell ⟨r, 1, none⟩ v1).setCell ⟨r, 2, none⟩ v2).setCell ⟨r, 3, none⟩ v3).setCell ⟨r, 4, none⟩ v4).setCell ⟨r, 5, none⟩ v5).setCell ⟨r, 6, none⟩ v6).setCell ⟨r, 7, none⟩ v7).setCell ⟨r, 8, none⟩ v8).setCell ⟨r, 9, none⟩ v9).setCell ⟨r, 10, none⟩ v10).setCell ⟨r, 11, none⟩ v11) = w3) ∧ TokAt w3 r #[v0, v1, v2, v3, v4, v5, v6, v7, v8, v9, v10, v11] ∧ Below w.heap.size w w3 ∧ But r W w3 :=
  ⟨_, rfl, st12_heap hR v0 v1 v2 v3 v4 v5 v6 v7 v8 v9 v10 v11, below_but hb (st12_but W r v0 v1 v2 v3 v4 v5 v6 v7 v8 v9 v10 v11) hr, st12_but W r v0 v1 v2 v3 v4 v5 v6 v7 v8 v9 v10 v11⟩
theorem below_two {w W : World} {g i j : Nat} {u v : Value} (h : Below w.heap.size w W) (hg : w.heap.size ≤ g) : Below w.heap.size w ((W.setCell ⟨g, i, none⟩ u).setCell ⟨g, j, none⟩ v) :=
  below_but (below_but h (But.set _ _ _ _) hg) (But.set _ _ _ _) hg
theorem TokAt.zero {w : World} {r : Nat} (h : TokAt w r tok0) : w.cell? ⟨r, 0, none⟩ = some (.int .i64 0) ∧ w.cell? ⟨r, 1, none⟩ = some (.string ⟨#[]⟩) ∧ w.cell? ⟨r, 2, none⟩ = some (.bool false) ∧ w.cell? ⟨r, 3, none⟩ = some (.string ⟨#[]⟩) ∧ w.cell? ⟨r, 4, none⟩ = some (.bool false) ∧ w.cell? ⟨r, 5, none⟩ = some (.string ⟨#[]⟩) ∧ w.cell? ⟨r, 6, none⟩ = some (.bool false) ∧ w.cell? ⟨r, 7, none⟩ = some (.bool false) ∧ w.cell? ⟨r, 8, none⟩ = some (.slice none 0 0) ∧ w.cell? ⟨r, 9, none⟩ = some (.bool false) ∧ w.cell? ⟨r, 10, none⟩ = some (.string ⟨#[]⟩) ∧ w.cell? ⟨r, 11, none⟩ = some (.int .i32 0) := TokAt.cells h
theorem setRow_but (w : World) (g : Nat) (cs : Array Value) : But g w (w.setRow g cs) :=
  ⟨rfl, rfl, rfl, by rw [size_setRow]; exact Nat.le_refl _, fun j _ hne => setRow_other w g j cs (fun e => hne (by rw [e]))⟩
/-- A whole token goes into a block; the world behind it under a name of its own. -/
theorem wpList_store_tok {P : Program} {ops : Array Oper} {rest : List Oper} {o : Oper} {a : Act} {w : World} {Q : Exit → Act → World → Prop} (hgd : o.guard = none) (ty : TypeId) (x y : Operand) (ho : o.op = .store ty x y)
    (g : Nat) (cells : Array Value) (hx : a.eval x = .pointer (some ⟨g, 0, none⟩)) (hy : a.eval y = .agg cells)
    (t : TypeId) (old : Array Value) (hg : w.heap[g]? = some (.cells old t (0, 0))) (hi : (P.info? ty).map (·.size) = some cells.size)
    (hold : old.size = cells.size) (h1 : cells.all (·.oneCell') = true)
    (h : ∀ w', w'.heap[g]? = some (.cells cells t (0, 0)) → But g w w' → wpList P ops Q rest (a.put o.dst undef) w') : wpList P ops Q (o :: rest) a w :=
  wpList_store_row hgd ty x y ho g cells hx hy t old hg hi hold h1 (h _ (setRow_heap w g old cells t (0, 0) hg) (setRow_but w g cells))
end Go.Proofs.YtbacdfceiofahaaGreatDoor

namespace Go.Proofs.YtbacdfceiofahaaGreatDoor
open Go.RowKit Go.Shelf Go.Lib
set_option maxHeartbeats 4000000
set_option maxRecDepth 100000

theorem qTag (s : ByteArray) (a : Int) (en : Bool) (hs : s.size ≤ 100000) (w : World) :
    Calls Tryz.prog 24 #[.string s, .int .i64 a, .bool en] w (TagR (clip s a) (tagT (refL lgL true) en (tlS s a)) w) := by
  have HN := Lib.hid (fun W => qName s a hs W)
  have hk := clip_le s a
  have hn := runN_in enU s (clip s a)
  have htr : s.data.toList.drop (clip s a + runN enU (tlS s a)) = tgRest (tlS s a) := by unfold tgRest tlS; rw [List.drop_drop]
  obtain ⟨k1, hk1⟩ : ∃ k1, k1 = clip s a + runN enU (tlS s a) := ⟨_, rfl⟩
  obtain ⟨nm, hnm⟩ : ∃ nm, nm = bl (tgName (tlS s a)) := ⟨_, rfl⟩
  have hnm' : bl (lowL (nulL ((tlS s a).take (runN enU (tlS s a))))) = nm := hnm.symm
  rw [← hk1, hnm'] at HN
  rw [← hk1] at htr
  have hk1s : k1 ≤ s.size := by rw [hk1]; unfold tlS; omega
  have HA := Lib.hid (fun W => qAttributes s k1 hs W)
  rw [clip_nat s k1 hk1s] at HA
  have HKK := Lib.hid (show clip s a ≤ k1 by omega)
  have HFIN := Lib.hid (fun w' (tk : Value) (cl : Bool) (N : Nat) (hb : Below w.heap.size w w') (h1 : clip s a ≤ N) (h2 : N ≤ s.size) h => tagR_of (R := refL lgL true) (s := s) (a := a) (en := en) (w := w) (w' := w') (tk := tk) (cl := cl) hb h1 h2 (by omega) h)
  have HTR := Lib.hid htr
  have HNM := Lib.hid hnm
  have hR0 : TokAt (w.alloc (.cells #[.int .i64 0, .string ⟨#[]⟩, .bool false, .string ⟨#[]⟩, .bool false, .string ⟨#[]⟩, .bool false, .bool false, .slice none 0 0, .bool false, .string ⟨#[]⟩, .int .i32 0] 27)) w.heap.size tok0 := tokAt_new w _
  have hB0 : Below w.heap.size w (w.alloc (.cells #[.int .i64 0, .string ⟨#[]⟩, .bool false, .string ⟨#[]⟩, .bool false, .string ⟨#[]⟩, .bool false, .bool false, .slice none 0 0, .bool false, .string ⟨#[]⟩, .int .i32 0] 27)) := below_alloc (Below.refl _ _) _
  obtain ⟨r, hr⟩ : ∃ r, r = w.heap.size := ⟨_, rfl⟩
  rw [← hr] at hR0
  have HR0 := Lib.hid (show w.heap.size ≤ r by omega)
  have HRE := Lib.hid hr
  have HRA := Lib.hid hR0
  have HB0 := Lib.hid hB0
  clear hk hn htr hk1 hnm hnm' hk1s hs hR0 hB0 hr
  go_enter Tryz.func24, Tryz.ntmps24
  go_wp2_with fail
  rw [← HRE.out]
  refine (HN.out _).mono ?_
  rintro e w1 ⟨rfl, hb1⟩
  have hB1 := below_next HB0.out hb1
  have hR1 := HRA.out.below hb1
  have HB1 := Lib.hid hB1
  have HR1 := Lib.hid hR1
  clear hB1 hR1 hb1
  go_wp2_with fail
  refine (HA.out _).mono ?_
  rintro e w2 ⟨v, sc, cl, N, acc, rfl, hb2, hN1, hN2, hrow, hal, hor⟩
  have hB2 := below_next HB1.out hb2
  have hR := HR1.out.below hb2
  have HOR := Lib.hid hor
  have HN1 := Lib.hid (show clip s a ≤ N by have := HKK.out; omega)
  have HN2 := Lib.hid hN2
  obtain ⟨pa, pn, pc, rfl⟩ : ∃ pa pn pc, v = .slice pa pn pc := by
    rcases hrow.2 with ⟨rfl, _⟩ | ⟨g, cap, cur, rfl, _⟩
    · exact ⟨_, _, _, rfl⟩
    · exact ⟨_, _, _, rfl⟩
  have HROW := Lib.hid hrow
  have HAL := Lib.hid hal
  have HB2 := Lib.hid hB2
  have HKEEP := Lib.hid (hR)
  clear hor hN1 hN2 hrow hal hB2 hb2
  cases cl with
  | false =>
    have HRR := Lib.hid hR
    obtain ⟨z0, z1, z2, z3, z4, z5, z6, z7, z8, z9, z10, z11⟩ := TokAt.zero hR
    obtain ⟨y0, y1, y2, y3, y4, y5, y6, y7, y8, y9, y10, y11⟩ := TokAt.frz hR
    clear hR
    go_wp2_with fail
    obtain ⟨w3, hw3, h3, hb3, hbut⟩ := retW HRR.out HB2.out HR0.out (.int .i64 0) (.string ⟨#[]⟩) (.bool false) (.string ⟨#[]⟩) (.bool false) (.string ⟨#[]⟩) (.bool false) (.bool false) (.slice none 0 0) (.bool false) (.string ⟨#[]⟩) (.int .i32 0)
    rw [hw3]
    obtain ⟨r0, r1, r2, r3, r4, r5, r6, r7, r8, r9, r10, r11⟩ := h3.cells
    clear hw3
    refine bodyPost_ret (v := .tuple #[.agg #[.int .i64 0, .string ⟨#[]⟩, .bool false, .string ⟨#[]⟩, .bool false, .string ⟨#[]⟩, .bool false, .bool false, .slice none 0 0, .bool false, .string ⟨#[]⟩, .int .i32 0], .bool false, .int .i64 N]) (by simp [results, Tryz.results24, go_sem, r0, r1, r2, r3, r4, r5, r6, r7, r8, r9, r10, r11]) rfl ?_
    refine HFIN.out _ _ _ _ hb3 HN1.out HN2.out (.inl ⟨rfl, rfl, ?_, ?_⟩)
    · rcases HOR.out with ⟨h, _⟩ | ⟨_, _, _, _, h, _⟩
      · cases h
      · exact h
    · rcases HOR.out with ⟨h, _⟩ | ⟨_, _, _, _, _, h⟩
      · cases h
      · rw [← HTR.out]; exact h
  | true =>
    have hat : atL (refL lgL true) (tgRest (tlS s a)) = some (acc, sc, s.data.toList.drop N) := by
      rcases HOR.out with ⟨_, h⟩ | ⟨h, _⟩
      · rw [← HTR.out]; exact h
      · cases h
    have HAT := Lib.hid hat
    clear hat
    cases en with
    | true =>
      have HRR := Lib.hid hR
      obtain ⟨z0, z1, z2, z3, z4, z5, z6, z7, z8, z9, z10, z11⟩ := TokAt.zero hR
      obtain ⟨y0, y1, y2, y3, y4, y5, y6, y7, y8, y9, y10, y11⟩ := TokAt.frz hR
      clear hR
      go_wp2_with fail
      obtain ⟨w3, hw3, h3, hb3, hbut⟩ := retW HRR.out HB2.out HR0.out (.int .i64 3) (.string nm) (.bool false) (.string ⟨#[]⟩) (.bool false) (.string ⟨#[]⟩) (.bool false) (.bool false) (.slice none 0 0) (.bool false) (.string ⟨#[]⟩) (.int .i32 0)
      rw [hw3]
      obtain ⟨r0, r1, r2, r3, r4, r5, r6, r7, r8, r9, r10, r11⟩ := h3.cells
      clear hw3
      refine bodyPost_ret (v := .tuple #[.agg #[.int .i64 3, .string nm, .bool false, .string ⟨#[]⟩, .bool false, .string ⟨#[]⟩, .bool false, .bool false, .slice none 0 0, .bool false, .string ⟨#[]⟩, .int .i32 0], .bool true, .int .i64 N]) (by simp [results, Tryz.results24, go_sem, r0, r1, r2, r3, r4, r5, r6, r7, r8, r9, r10, r11]) rfl ?_
      refine HFIN.out _ _ _ _ hb3 HN1.out HN2.out (.inr ⟨rfl, acc, sc, .slice pa pn pc, HAT.out, attrRow_of (own_tok HROW.out HRR.out hbut), HAL.out, by rw [← HNM.out]; rfl⟩)
    | false =>
      have HRR := Lib.hid hR
      obtain ⟨z0, z1, z2, z3, z4, z5, z6, z7, z8, z9, z10, z11⟩ := TokAt.zero hR
      obtain ⟨y0, y1, y2, y3, y4, y5, y6, y7, y8, y9, y10, y11⟩ := TokAt.frz hR
      clear hR
      go_wp2_with fail
      obtain ⟨w3, hw3, h3, hb3, hbut⟩ := retW HRR.out HB2.out HR0.out (.int .i64 2) (.string nm) (.bool false) (.string ⟨#[]⟩) (.bool false) (.string ⟨#[]⟩) (.bool false) (.bool false) (.slice pa pn pc) (.bool sc) (.string ⟨#[]⟩) (.int .i32 0)
      rw [hw3]
      obtain ⟨r0, r1, r2, r3, r4, r5, r6, r7, r8, r9, r10, r11⟩ := h3.cells
      clear hw3
      refine bodyPost_ret (v := .tuple #[.agg #[.int .i64 2, .string nm, .bool false, .string ⟨#[]⟩, .bool false, .string ⟨#[]⟩, .bool false, .bool false, .slice pa pn pc, .bool sc, .string ⟨#[]⟩, .int .i32 0], .bool true, .int .i64 N]) (by simp [results, Tryz.results24, go_sem, r0, r1, r2, r3, r4, r5, r6, r7, r8, r9, r10, r11]) rfl ?_
      refine HFIN.out _ _ _ _ hb3 HN1.out HN2.out (.inr ⟨rfl, acc, sc, .slice pa pn pc, HAT.out, attrRow_of (own_tok HROW.out HRR.out hbut), HAL.out, by rw [← HNM.out]; rfl⟩)
end Go.Proofs.YtbacdfceiofahaaGreatDoor

namespace Go.Proofs.YtbacdfceiofahaaGreatDoor
open Go.RowKit Go.Shelf Go.Lib
set_option maxHeartbeats 4000000
set_option maxRecDepth 100000

theorem atts_same {s : ByteArray} {v v' : Value} {X : Option (AttL × Bool × List UInt8)} {acc acc' : AttL} {sc sc' cl cl' : Bool} {N N' : Nat} (hN : N ≤ s.size) (hN' : N' ≤ s.size)
    (h : (cl = true ∧ X = some (acc, sc, s.data.toList.drop N)) ∨ (cl = false ∧ sc = false ∧ v = .slice none 0 0 ∧ acc = [] ∧ N = s.size ∧ X = none))
    (h' : (cl' = true ∧ X = some (acc', sc', s.data.toList.drop N')) ∨ (cl' = false ∧ sc' = false ∧ v' = .slice none 0 0 ∧ acc' = [] ∧ N' = s.size ∧ X = none)) : acc' = acc ∧ sc' = sc ∧ cl' = cl ∧ N' = N := by
  rcases h with ⟨rfl, h⟩ | ⟨rfl, rfl, rfl, rfl, rfl, h⟩
  · rcases h' with ⟨rfl, h'⟩ | ⟨_, _, _, _, _, h'⟩
    · have e := Option.some.inj (h.symm.trans h')
      injection e with e1 e2
      injection e2 with e2 e3
      refine ⟨e1.symm, e2.symm, rfl, ?_⟩
      have e4 := congrArg List.length e3
      rw [List.length_drop, List.length_drop, size_list] at e4
      omega
    · rw [h] at h'; cases h'
  · rcases h' with ⟨_, h'⟩ | ⟨rfl, rfl, rfl, rfl, rfl, _⟩
    · rw [h] at h'; cases h'
    · exact ⟨rfl, rfl, rfl, rfl⟩
theorem lawTags (s : ByteArray) (a : Int) (en : Bool) (m : Int) (w : World) (hm : w.cell? ⟨1, 0, none⟩ = some (.int .i64 m)) (hc : CtlW w) :
    Calls Tryz.prog 4 #[.string s, .int .i64 a, .bool en] w fun e w' => e = .returned (.bool true) ∧ Below w.heap.size w w' := by
  have HM := Lib.hid hm
  have HC := Lib.hid hc
  have HS1 := Lib.hid (small02 s)
  have HK := Lib.hid (known02 m w hc hm)
  clear hm hc
  by_cases h1 : s.size ≤ 4096
  · rw [decide_eq_true h1] at HS1
    have H1 := Lib.hid h1
    have A1 := Lib.hid (fun W hc hm => attributesC lgL (Lib.hid lgOk) s a m (by omega) W hc hm)
    have A2 := Lib.hid (fun W => qAttributes s a (by omega) W)
    have D1 := Lib.hid (fun W hc hm => tagM lgL (Lib.hid lgOk) s a en m (by omega) W hc hm)
    have D2 := Lib.hid (fun W => qTag s a en (by omega) W)
    clear h1
    go_enter Tryz.func4, Tryz.ntmps4
    go_wp2_with fail
    refine (HS1.out w).mono ?_
    rintro e w1 ⟨rfl, rfl⟩
    go_wp2_with fail
    refine (A1.out w1 HC.out HM.out).mono ?_
    rintro e w2 ⟨v, sc, cl, N, acc, rfl, hb2, _, hN, hrow, hal, hor⟩
    have HB2 := Lib.hid hb2
    have HN := Lib.hid hN
    have HROW := Lib.hid (attrRow_of hrow)
    have HAL := Lib.hid (show acc.length ≤ 1000000 by have := H1.out; omega)
    have HOR := Lib.hid hor
    clear hb2 hN hrow hal hor
    go_wp2_with fail
    refine (A2.out w2).mono ?_
    rintro e w3 ⟨v', sc', cl', N', acc', rfl, hb3, _, hN', hrow', _, hor'⟩
    obtain ⟨rfl, rfl, rfl, rfl⟩ := atts_same HN.out hN' HOR.out hor'
    have hb3' := below_next HB2.out hb3
    have HB3 := Lib.hid hb3'
    have HSA := Lib.hid (sameAttrs v v' acc' HAL.out w3 (HROW.out.below hb3) (attrRow_of hrow'))
    have t1 : (sc' != sc') = false := by simp
    have t2 : (cl' != cl') = false := by simp
    have t3 : ((N' : Int) != (N' : Int)) = false := by simp
    clear hb3 hN' hrow' hor' hb3' HOR HROW
    go_wp2_with fail
    refine HSA.out.mono ?_
    rintro e w4 ⟨rfl, hs4⟩
    have hb4 := below_next HB3.out hs4
    have HB4 := Lib.hid hb4
    clear hs4 hb4 HSA A1 A2 HN HAL t1 t2 t3
    generalize tagT (refL lgL true) en (tlS s a) = X at D1 D2
    generalize clip s a = k at D1 D2
    obtain ⟨T, b, n⟩ := X
    obtain ⟨NN, hNN⟩ : ∃ N : Int, N = ((k + n : Nat) : Int) := ⟨_, rfl⟩
    unfold TagR at D1 D2
    simp only [← hNN] at D1 D2
    have tb : (b == b) = true := by simp
    have tn : (NN == NN) = true := by simp
    clear hNN
    go_wp2_with fail
    refine (D1.out w4 (HC.out.below HB4.out) (carry HM.out HB4.out)).mono ?_
    rintro e w5 ⟨v, rfl, ht, hs5⟩
    obtain ⟨k1, n1, hn1, p1, hp1, y1, hy1, q1, A1, pn1, pc1, sc1, d1, r1, rfl, -⟩ := ht.form
    have hb5 := below_next HB4.out hs5
    have HT5 := Lib.hid ht
    have HB5 := Lib.hid hb5
    clear ht hs5 hb5
    go_wp2_with fail
    generalize hW6 : World.alloc _ _ = w6
    have hx6 : TokAt w6 w5.heap.size #[.int .i64 k1, .string n1, .bool hn1, .string p1, .bool hp1, .string y1, .bool hy1, .bool q1, .slice A1 pn1 pc1, .bool sc1, .string d1, .int .i32 r1] := by rw [← hW6]; exact tokAt_new w5 _
    have hb6 : Below w1.heap.size w1 w6 := by rw [← hW6]; exact below_alloc HB5.out _
    have hs6 : Below w5.heap.size w5 w6 := by rw [← hW6]; exact below_alloc (Below.refl _ _) _
    have HX6 := Lib.hid hx6
    have HB6 := Lib.hid hb6
    have HR6 := Lib.hid (HT5.out.below hs6)
    clear hW6 hx6 hb6 hs6 HT5
    generalize w5.heap.size = g1 at HX6 ⊢
    refine (D2.out w6).mono ?_
    rintro e w7 ⟨v, rfl, ht, hs7⟩
    obtain ⟨k2, n2, hn2, p2, hp2, y2, hy2, q2, A2, pn2, pc2, sc2, d2, r2, rfl, -⟩ := ht.form
    have hx7 := HX6.out.below hs7
    have hlt := hx7.lt
    have hb7 := below_next HB6.out hs7
    have HT7 := Lib.hid ht
    have HR7 := Lib.hid (HR6.out.below hs7)
    have HB7 := Lib.hid hb7
    obtain ⟨x0, x1, x2, x3, x4, x5, x6, x7, x8, x9, x10, x11⟩ := hx7.cells
    clear ht hs7 hx7 hb7 HX6 HR6
    go_wp2_with fail
    generalize hW8 : World.alloc _ _ = w8
    have hs8 : Below w7.heap.size w7 w8 := by rw [← hW8]; exact below_alloc (Below.refl _ _) _
    have hb8 : Below w1.heap.size w1 w8 := by rw [← hW8]; exact below_alloc HB7.out _
    clear hW8
    refine (sameTok w8 (HR7.out.below hs8) (HT7.out.below hs8)).mono ?_
    rintro e w9 ⟨rfl, hs9⟩
    have hb9 := below_next hb8 hs9
    have HKn := Lib.hid (known02 m w9 (HC.out.below hb9) (carry HM.out hb9))
    have HB9 := Lib.hid hb9
    clear hs8 hb8 hs9 hb9
    go_wp2_with fail
    refine HKn.out.mono ?_
    rintro e w10 ⟨rfl, hs⟩
    go_wp2_with fail
    go_ret
    exact ⟨rfl, below_next HB9.out hs⟩
  · rw [decide_eq_false h1] at HS1
    clear h1
    go_enter Tryz.func4, Tryz.ntmps4
    go_wp2_with fail
    refine (HS1.out w).mono ?_
    rintro e w1 ⟨rfl, rfl⟩
    go_wp2_with fail
    refine HK.out.mono ?_
    rintro e w4 ⟨rfl, hb⟩
    go_wp2_with fail
    go_ret
    exact ⟨rfl, hb⟩
end Go.Proofs.YtbacdfceiofahaaGreatDoor

namespace Go.Proofs.YtbacdfceiofahaaGreatDoor
open Go.ChangeShapes Go.WideShapes Go.ChangeAt Go.RowKit
set_option maxRecDepth 100000

def laidC : List (String × DataW Unit) := [("unicode/utf8.acceptRanges", Rows.laid_unicode_utf8_acceptRanges), ("thicket/text.controls", Rows.laid_thicket_text_controls), ("unicode/utf8.first", Rows.laid_unicode_utf8_first)]
theorem doorC_os (os : Os) : (World.laidAll Tryz.prog os laidC).os = os := World.laidAll_os _ _ _
theorem doorC_met (os : Os) (args : Array Value) : laidMetH Tryz.prog laidC ((World.laidAll Tryz.prog os laidC).forCall (fun _ _ => 0) ⟨#[], args, []⟩).memory := by
  rw [MakeChecks.laidMetH_plain _ _ _ (by kernel_rfl)]
  exact laidMet_laidAll _ (by kernel_rfl) (by kernel_rfl)

theorem gCtl : Tryz.prog.globalNamed "thicket/text.controls" = some 0 := by kernel_rfl
theorem tCtl : (Tryz.prog.globals[0]?).map (·.type) = some 176 := by kernel_rfl
theorem cCtl : Tryz.prog.cellsOf 21 = 1 := by kernel_rfl
theorem ctlD : (Rows.laid_thicket_text_controls : DataW Unit) = .agg (ctlT.map fun z => .lit (.int .i32 z)) := rfl

theorem ctl_of_laid {W : World} (h : laidMetH Tryz.prog laidC W) : CtlW W := by
  rw [MakeChecks.laidMetH_plain _ _ _ (by kernel_rfl)] at h
  obtain ⟨ps, ⟨g0, t0, cs0, f0, p0, q0, hg0, ht0, hv0, hd0, ⟨g1, t1, cs1, f1, p1, q1, hg1, ht1, hv1, hd1, _, _⟩, _⟩, _⟩ := h
  obtain rfl := Option.some.inj (gCtl.symm.trans hg1)
  obtain rfl := Option.some.inj (tCtl.symm.trans ht1)
  obtain ⟨xs, m1, rfl, hx1, hlen, hn, hel⟩ := DataW.trod_array Tryz.underlying176 hd1
  intro k hk
  have h1 := hel k hk
  rw [cCtl, Nat.mul_one] at h1
  have hxk : xs[k]? = some (xs[k]'(by omega)) := List.getElem?_eq_getElem (by omega)
  rw [hxk] at h1
  obtain ⟨z, e1, e2, _⟩ := DataW.trod_int Tryz.underlying21 h1
  have hz : z = ctlT.getD k 0 := by
    have hx2 := congrArg Prod.fst hx1
    rw [ctlD] at hx2
    simp only [DataW.agg.injEq] at hx2
    have h3 : (ctlT.map fun z => (DataW.lit (.int .i32 z) : DataW Unit))[k]? = (xs.map (·.1))[k]? := by rw [hx2]
    rw [List.getElem?_map, List.getElem?_map, hxk, e2] at h3
    have hk2 : k < ctlT.length := hk
    rw [List.getElem?_eq_getElem hk2] at h3
    simp at h3
    rw [List.getD_eq_getElem?_getD, List.getElem?_eq_getElem hk2]
    simpa using h3.symm
  rw [World.var?_cell hg1 hv1 k, ← hz]
  have h4 : (cs1.toList.drop k)[0]? = some (.int .i32 z) := by
    have := congrArg (fun l => l[0]?) e1
    simp only [List.getElem?_take] at this
    simpa using this
  rw [List.getElem?_drop, Nat.add_zero, Array.getElem?_toList] at h4
  exact h4

/-- A row whose start is said to hold more, with the shapes and the listed variables at hand. -/
theorem handedC {H : Type} {enc : TypeId × Value → H} {a : Assume} {os : Os} {f : FuncId} {fn : Func} {s : ChangeSpec} {conds : List PathCond} {apart fresh handsOn again : Bool}
    (own : ownKnob Tryz.prog.godebug = none) (started : os.Started) (noInit : Tryz.prog.inits.idxOf? f = none) (hfn : Tryz.prog.funcs[f]? = some fn)
    (witness : ∃ (w : World) (tape : Tape) (i : Input), w.os = os ∧ (w.forCall tape i).Shaped Tryz.prog ∧ i.vars = [] ∧ Input.okWide Tryz.prog (w.forCall tape i) .any w.heap.size f i ∧
      ((s.pre enc Tryz.prog fn conds apart (w.forCall tape i).memory i.args ∧ laidMetH Tryz.prog laidC (w.forCall tape i).memory) ∧ sizedMet enc Tryz.prog fn (OpenSpec.ofChange s) apart (w.forCall tape i).memory i.args) ∧ a.holds Tryz.prog (lone (Frame.enter Tryz.prog f i.args .normal) [] (w.forCall tape i)))
    (walk : ∀ (W : World) (base : Nat) (args : Array Value) (ds gs : List (DataW H)) (before : List MemPlace),
      (∀ (j : Nat) t v, fn.params[j]? = some t → args[j]? = some v → Value.okWide Tryz.prog W .any base t v) →
      DataW.Whole enc Tryz.prog fn.params.toList s.vars apart W args.toList ds gs before → W.ShapedOpen Tryz.prog → CtlW W →
      Calls Tryz.prog f args W fun e W' => ∃ v, e = .returned v ∧ s.post enc Tryz.prog fn apart fresh handsOn again W args v W') :
    ReturnsInHanded a Tryz.checked os f .any (fun w args => (s.pre enc Tryz.prog fn conds apart w args ∧ laidMetH Tryz.prog laidC w) ∧ sizedMet enc Tryz.prog fn (OpenSpec.ofChange s) apart w args) (s.post enc Tryz.prog fn apart fresh handsOn again) := by
  refine returnsInHanded_of_calls (C := Tryz.checked) own started (by exact noInit) witness ?_
  intro w tape i _ hsh _ hok hpre _
  obtain ⟨_, _, _, fn', hfn', _, _, _, _, hval⟩ := hok
  obtain rfl : fn' = fn := Option.some.inj (hfn'.symm.trans hfn)
  obtain ⟨⟨⟨ds, gs, before, hw, _⟩, hX⟩, _⟩ := hpre
  refine (walk (w.forCall tape i) w.heap.size i.args ds gs before hval (DataW.Whole.of_heap (w' := w.forCall tape i) (by rfl) hw) hsh (ctl_of_laid (laidMetH.of_heap (w' := w.forCall tape i) (by rfl) hX))).mono fun e W' ⟨v, he, hp⟩ => ?_
  subst he
  exact ChangeSpec.post_blind hp
end Go.Proofs.YtbacdfceiofahaaGreatDoor
