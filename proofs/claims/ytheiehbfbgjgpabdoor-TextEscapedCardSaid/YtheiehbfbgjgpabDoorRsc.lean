/-
  The document's own escaping.
-/
import Derived.Test.YtheiehbfbgjgpabDoorEsf
import Derived.Test.YtheiehbfbgjgpabDoorBeg
namespace Go.Proofs.YtheiehbfbgjgpabDoor
open Go.RowKit
set_option maxHeartbeats 2000000
set_option maxRecDepth 100000

/-- What a byte becomes: the last one of the list's. -/
def gF : List (UInt8 × List UInt8) → UInt8 → List UInt8 → List UInt8
  | [], _, x => x
  | (c, y) :: r, b, x => gF r b (if b = c then y else x)
def fG (T : List (UInt8 × List UInt8)) (b : UInt8) : List UInt8 := gF T b (if b = 38 then [38, 97, 109, 112, 59] else [b])
def tText : List (UInt8 × List UInt8) := [(60, [38, 108, 116, 59]), (62, [38, 103, 116, 59])]
def tValue : List (UInt8 × List UInt8) := [(34, [38, 113, 117, 111, 116, 59])]
theorem fG_text : fG tText = fT := by
  funext b
  unfold fG fT tText gF gF gF
  by_cases h1 : b = 38
  · subst h1; decide
  · rw [if_neg h1, if_neg h1]
    by_cases h2 : b = 60
    · subst h2; decide
    · rw [if_neg h2, if_neg h2]
theorem fG_value : fG tValue = fV := by
  funext b
  unfold fG fV tValue gF gF
  by_cases h1 : b = 38
  · subst h1; decide
  · rw [if_neg h1, if_neg h1]

theorem gF_step (T : List (UInt8 × List UInt8)) (k : Nat) (hk : k < T.length) (b : UInt8) (x : List UInt8) : gF (T.drop k) b x = gF (T.drop (k + 1)) b (if b = (T[k]).1 then (T[k]).2 else x) := by
  rw [List.drop_eq_getElem_cons hk]
  rfl
theorem fromB (T : List (UInt8 × List UInt8)) (F : ByteArray) (hF : F.data.toList = T.map (·.1)) (k : Nat) (hk : k < T.length) (h : k < F.size) : (F[k]'h) = (T[k]).1 := by
  have : F.data.toList[k]? = some (T[k]).1 := by rw [hF]; simp [hk]
  rw [Array.getElem?_toList] at this
  have e : F.data[k]? = some (F[k]'h) := Array.getElem?_eq_getElem (xs := F.data) h
  rw [e] at this
  exact Option.some.inj this

theorem rEscape (s F : ByteArray) (T : List (UInt8 × List UInt8)) (hF : F.data.toList = T.map (·.1)) (hT : T.length ≤ 2) (hy : ∀ p ∈ T, p.2.length ≤ 6) (g : Nat) (hs : s.size ≤ 70000) (w : World) (hc : ∀ k (h : k < T.length), w.cell? ⟨g, k, none⟩ = some (.string ⟨(T[k]).2.toArray⟩)) :
    Calls Tryd.prog 56 #[.string s, .string F, .slice (some ⟨g, 0, none⟩) T.length T.length] w fun e w' => e = .returned (.string ⟨(escF (fG T) s.data.toList).toArray⟩) ∧ Below w.heap.size w w' := by
  have hFs : F.size = T.length := by rw [← size_list, hF, List.length_map]
  obtain ⟨R, hR⟩ : ∃ R, R = escF (fG T) s.data.toList := ⟨_, rfl⟩
  rw [← hR]
  have HR := Lib.hid hR
  have HC := Lib.hid hc
  have HFS := Lib.hid hFs
  clear hR hc hFs
  go_enter Tryd.func56, Tryd.ntmps56
  go_wp2_with fail
  go_loopw [7, 8] (fun v i wr => ∃ (k : Nat) (O : ByteArray), k ≤ s.size ∧ v = .string O ∧ i = .int .i64 k ∧ O.data.toList ++ escF (fG T) (s.data.toList.drop k) = R ∧ O.size ≤ 6 * k ∧ Below w.heap.size w wr) (fun _ i _ => s.size - (intOf i).toNat)
  case atStart => exact ⟨0, ⟨#[]⟩, Nat.zero_le _, rfl, rfl, HR.out.symm, Nat.zero_le _, Below.refl _ _⟩
  case round =>
    obtain ⟨k, O, hk, rfl, rfl, hpre, hO, hB⟩ := hrel
    obtain ⟨wo, rfl⟩ : ∃ wo : World, wo = wr := ⟨_, rfl⟩
    have HP := Lib.hid hpre
    clear hpre
    by_cases hlt : k < s.size
    · have hI : (k : Int) < (s.size : Int) := by omega
      have HD := Lib.hid (drop_byte s k hlt)
      by_cases hn : (s[k]'hlt) = 194 ∧ ∃ h : k + 1 < s.size, s[k + 1]'h = 160
      · obtain ⟨hb, hlt2, hx⟩ := hn
        have hq : (((s[k]'hlt).toNat : Int) == 194) = true := by rw [hb]; rfl
        have hI2 : (k : Int) + 1 < (s.size : Int) := by omega
        have hq2 : (((s[k + 1]'hlt2).toNat : Int) == 160) = true := by rw [hx]; rfl
        have HS : Hid ((O ++ ⟨#[38, 110, 98, 115, 112, 59]⟩ : ByteArray).data.toList ++ escF (fG T) (s.data.toList.drop (k + 1 + 1)) = R) := Lib.hid (by
          rw [← HP.out, HD.out, drop_byte s (k + 1) hlt2, hb, hx, escF_n, ByteArray.data_append, Array.toList_append, List.append_assoc]
          rfl)
        have hOs : (O ++ ⟨#[38, 110, 98, 115, 112, 59]⟩ : ByteArray).size = O.size + 6 := by rw [ByteArray.size_append]; rfl
        have HOS := Lib.hid hOs
        clear hb hx hOs
        go_wp2_with fail
        go_roundw
        case rel => exact ⟨k + 1 + 1, _, by omega, rfl, by go_num, HS.out, by rw [HOS.out]; omega, hB⟩
        case measure => simp [intOf]; omega
      · have hsel : (((s[k]'hlt).toNat : Int) == 194) = false ∨ ((((s[k]'hlt).toNat : Int) == 194) = true ∧ ¬ (k : Int) + 1 < (s.size : Int)) ∨ ((((s[k]'hlt).toNat : Int) == 194) = true ∧ ∃ h : k + 1 < s.size, (((s[k + 1]'h).toNat : Int) == 160) = false) := by
          by_cases hb : s[k]'hlt = 194
          · have hq : (((s[k]'hlt).toNat : Int) == 194) = true := by rw [hb]; rfl
            by_cases h2 : k + 1 < s.size
            · refine .inr (.inr ⟨hq, h2, ?_⟩)
              rw [beq_eq_false_iff_ne]
              intro e
              exact hn ⟨hb, h2, UInt8.toNat_inj.mp (by show _ = 160; omega)⟩
            · exact .inr (.inl ⟨hq, by omega⟩)
          · refine .inl ?_
            rw [beq_eq_false_iff_ne]
            intro e
            exact hb (UInt8.toNat_inj.mp (by show _ = 194; omega))
        have hnn : ¬ ((s[k]'hlt) = 194 ∧ (s.data.toList.drop (k + 1)).head? = some 160) := by
          rintro ⟨h1, h2⟩
          by_cases h3 : k + 1 < s.size
          · rw [drop_byte s (k + 1) h3] at h2
            exact hn ⟨h1, h3, by simpa using h2⟩
          · rw [drop_end s (k + 1) (by omega)] at h2
            simp at h2
        have HNN := Lib.hid hnn
        have hx1 : (s.extract k (k + 1)).data.toList = [s[k]'hlt] := by
          rw [Lib.extract_data, show k + 1 - k = 1 by omega, drop_byte s k hlt]
          rfl
        have HX1 := Lib.hid hx1
        clear hn hnn hx1
        have hx38 : ((s.extract k (k + 1)).toList == [38]) = decide (s[k]'hlt = 38) := by
          rw [ByteArray.toList_eq, HX1.out, Bool.eq_iff_iff]
          simp
        have HST : ∀ X : ByteArray, X.data.toList = fG T (s[k]'hlt) → X.size ≤ 6 → Hid ((O ++ X : ByteArray).data.toList ++ escF (fG T) (s.data.toList.drop (k + 1)) = R ∧ (O ++ X : ByteArray).size ≤ 6 * (k + 1)) := fun X h1 h2 => Lib.hid (by
          refine ⟨?_, by rw [ByteArray.size_append]; omega⟩
          rw [← HP.out, HD.out, escF_b _ _ _ HNN.out, ByteArray.data_append, Array.toList_append, List.append_assoc, h1])
        have HSTH := Lib.hid HST
        clear HST
        have hini : ∀ X : ByteArray, X.data.toList = (if s[k]'hlt = 38 then [38, 97, 109, 112, 59] else [s[k]'hlt]) → gF (T.drop 0) (s[k]'hlt) X.data.toList = fG T (s[k]'hlt) := fun X h => by rw [h]; rfl
        have HINI := Lib.hid hini
        clear hini
        rcases Bool.eq_false_or_eq_true (decide (s[k]'hlt = 38)) with hd | hd
        all_goals
          rw [hd] at hx38
          have HDD := Lib.hid hd
          clear hd
          rcases hsel with h1 | ⟨h1, h2⟩ | ⟨h1, h2, h3⟩
          all_goals
            go_wp2_with fail
            go_loopw [9, 10] (fun x j wq => ∃ (q : Nat) (X : ByteArray), q ≤ T.length ∧ j = .int .i64 q ∧ x = .string X ∧ gF (T.drop q) (s[k]'hlt) X.data.toList = fG T (s[k]'hlt) ∧ X.size ≤ 6 ∧ Below w.heap.size w wq) (fun _ j _ => T.length - (intOf j).toNat)
            case atStart =>
              first
                | exact ⟨0, _, Nat.zero_le _, rfl, rfl, HINI.out _ (by rw [if_pos (of_decide_eq_true HDD.out)]), by decide, hB⟩
                | exact ⟨0, _, Nat.zero_le _, rfl, rfl, HINI.out _ (by rw [if_neg (of_decide_eq_false HDD.out)]; exact HX1.out), by rw [← size_list, HX1.out]; simp, hB⟩
            case round =>
              obtain ⟨q, X, hq, rfl, rfl, hg, hXs, hBq⟩ := hrel
              have HG := Lib.hid hg
              clear hg
              by_cases hql : q < T.length
              · have hqF : q < F.size := by rw [HFS.out]; exact hql
                have hI3 : (q : Int) < (F.size : Int) := by omega
                have hI4 : (q : Int) < (T.length : Int) := by omega
                have hct : wr.cell? ⟨g, q, none⟩ = some (.string ⟨(T[q]).2.toArray⟩) := (hBq.cell (World.block_lt_of_cell? _ _ (HC.out q hql))).trans (HC.out q hql)
                have hcmp : (((s[k]'hlt).toNat : Int) == ((F[q]'hqF).toNat : Int)) = decide (s[k]'hlt = (T[q]).1) := by
                  rw [fromB T F hF q hql hqF, Bool.eq_iff_iff, beq_iff_eq, decide_eq_true_eq]
                  exact ⟨fun e => UInt8.toNat_inj.mp (by omega), fun e => by rw [e]⟩
                have HGS := Lib.hid (gF_step T q hql (s[k]'hlt) X.data.toList)
                have hyq := hy (T[q]) (List.getElem_mem hql)
                have hYs : (⟨(T[q]).2.toArray⟩ : ByteArray).size ≤ 6 := hyq
                generalize hY : (⟨(T[q]).2.toArray⟩ : ByteArray) = Y at hct hYs
                have HY : Hid (Y.data.toList = (T[q]).2) := Lib.hid (by rw [← hY])
                clear hY hyq
                rcases Bool.eq_false_or_eq_true (decide (s[k]'hlt = (T[q]).1)) with he | he
                · rw [he] at hcmp
                  have HN : Hid (gF (T.drop (q + 1)) (s[k]'hlt) Y.data.toList = fG T (s[k]'hlt)) := Lib.hid (by rw [← HG.out, HGS.out, if_pos (of_decide_eq_true he), HY.out])
                  clear he
                  go_wp2_with fail
                  go_quiet (fail)
                  go_wp2_with fail
                  go_roundw
                  case rel => exact ⟨q + 1, Y, by omega, by go_num, rfl, HN.out, hYs, by (repeat' (first | (with_reducible exact Below.refl _ _) | (with_reducible assumption) | (with_reducible refine below_alloc ?_ _) | (with_reducible refine Below.drew ?_) | (with_reducible refine below_drewN ?_ _) | (with_reducible refine Below.setCell ?_ ?_ _) | go_size | (refine below_next ?_ (by assumption))))⟩
                  case measure => simp [intOf]; omega
                · rw [he] at hcmp
                  have HN : Hid (gF (T.drop (q + 1)) (s[k]'hlt) X.data.toList = fG T (s[k]'hlt)) := Lib.hid (by rw [← HG.out, HGS.out, if_neg (of_decide_eq_false he)])
                  clear he
                  go_wp2_with fail
                  go_quiet (fail)
                  go_wp2_with fail
                  go_roundw
                  case rel => exact ⟨q + 1, X, by omega, by go_num, rfl, HN.out, hXs, by (repeat' (first | (with_reducible exact Below.refl _ _) | (with_reducible assumption) | (with_reducible refine below_alloc ?_ _) | (with_reducible refine Below.drew ?_) | (with_reducible refine below_drewN ?_ _) | (with_reducible refine Below.setCell ?_ ?_ _) | go_size | (refine below_next ?_ (by assumption))))⟩
                  case measure => simp [intOf]; omega
              · have hqF : ¬ q < F.size := by rw [HFS.out]; exact hql
                have hI3 : ¬ (q : Int) < (F.size : Int) := by omega
                have HZ := HSTH.out X (by
                  have := HG.out
                  rwa [List.drop_eq_nil_of_le (by omega)] at this) hXs
                go_wp2_with fail
                go_roundw
                case rel => exact ⟨k + 1, O ++ X, by omega, rfl, by go_num, HZ.out.1, HZ.out.2, hBq⟩
                case measure => simp [intOf]; omega
    · have hl : O.data.toList = R := by
        have := HP.out
        rw [drop_end s k (by omega)] at this
        simpa [escF] using this
      have hO2 : O = ⟨R.toArray⟩ := list_bytes _ _ hl
      have HO := Lib.hid hO2
      clear hl hO2
      go_wp2
      go_ret
      exact ⟨ret_str HO.out, hB⟩

theorem rEscText (s : ByteArray) (hs : s.size ≤ 70000) (w : World) :
    Calls Tryd.prog 32 #[.string s] w fun e w' => e = .returned (.string ⟨(escTL s.data.toList).toArray⟩) ∧ Below w.heap.size w w' := by
  have HC := Lib.hid (fun w' => rEscape s ⟨#[60, 62]⟩ tText rfl (by decide) (by decide) w.heap.size hs w')
  rw [fG_text] at HC
  have HE := Lib.hid (escTL_eq s.data.toList)
  go_enter Tryd.func32, Tryd.ntmps32
  go_wp2_with fail
  refine (HC.out _ ?_).mono ?_
  · intro k hk
    have : k = 0 ∨ k = 1 := by simp [tText] at hk; omega
    rcases this with rfl | rfl <;> simp [go_sem, tText]
  rintro e w1 ⟨rfl, hb1⟩
  go_wp2_with fail
  go_ret
  exact ⟨by rw [HE.out]; rfl, below_next (below_alloc (Below.refl _ _) _) hb1⟩

theorem rEscValue (s : ByteArray) (hs : s.size ≤ 70000) (w : World) :
    Calls Tryd.prog 33 #[.string s] w fun e w' => e = .returned (.string ⟨(escVL s.data.toList).toArray⟩) ∧ Below w.heap.size w w' := by
  have HC := Lib.hid (fun w' => rEscape s ⟨#[34]⟩ tValue rfl (by decide) (by decide) w.heap.size hs w')
  rw [fG_value] at HC
  have HE := Lib.hid (escVL_eq s.data.toList)
  go_enter Tryd.func33, Tryd.ntmps33
  go_wp2_with fail
  refine (HC.out _ ?_).mono ?_
  · intro k hk
    have : k = 0 := by simp [tValue] at hk; omega
    subst this
    simp [go_sem, tValue]
  rintro e w1 ⟨rfl, hb1⟩
  go_wp2_with fail
  go_ret
  exact ⟨by rw [HE.out]; rfl, below_next (below_alloc (Below.refl _ _) _) hb1⟩
end Go.Proofs.YtheiehbfbgjgpabDoor
