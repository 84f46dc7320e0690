/-
  Comment.
-/
import Derived.Test.YtbjnolihaacahaaGreatDoorY37
import Derived.Test.YtbjnolihaacahaaGreatDoorY19
import Derived.Test.YtbjnolihaacahaaGreatDoorY10
namespace Go.Proofs.YtbjnolihaacahaaGreatDoor
open Go.RowKit Go.Shelf Go.Lib
set_option maxHeartbeats 4000000
set_option maxRecDepth 100000

theorem isDash (r : Int) (w : World) : Calls Tryz.prog 61 #[.int .i32 r] w fun e w' => e = .returned (.bool (decide (r = 45))) ∧ Below w.heap.size w w' := by
  go_enter Tryz.func61, Tryz.ntmps61
  go_wp2
  go_ret
  exact ⟨ret_bool (by rw [Bool.eq_iff_iff]; simp), by (repeat' (first | (with_reducible exact Below.refl _ _) | (with_reducible assumption) | (with_reducible refine below_alloc ?_ _) | (with_reducible refine Below.drew ?_) | (with_reducible refine _root_.Go.below_drewN ?_ _) | (with_reducible refine Below.setCell ?_ ?_ _) | go_size | (refine below_next ?_ (by assumption))))⟩
theorem grows_dash (w : World) : PredGrows Tryz.prog 61 #[] (fun r => decide ((r : Int) = 45)) w := fun W x _ _ => isDash x W
theorem hi_dash : ∀ r : Nat, 128 ≤ r → r ≤ 1114111 → decide ((r : Int) = 45) = false := fun r h _ => decide_eq_false (by omega)
theorem q_dash : (qOf fun r => decide ((r : Int) = 45)) = fun b => b == 45 := q_one 45 45 rfl

/-- What is still read from each label on: startDash 0, done 1, comment 2, end 3, endDash 4, endBang 5. -/
def comG : Nat → List UInt8 → List UInt8 × Nat
  | 0, u => if [62].isPrefixOf u then ([], 1) else comM 1 u
  | 1, _ => ([], 0)
  | 2, u => comM 0 u
  | 3, u => comM 2 u
  | 4, u => comM 1 u
  | _, u => comM 3 u
def comK : Nat → Nat
  | 1 => 0
  | 2 => 1
  | _ => 2

/-- At a label: the cursor at j, what has been kept, and what it makes with what is still to be read. -/
structure ComI (s : ByteArray) (k cb ob g l n : Nat) (w wr : World) (j : Nat) (acc : List UInt8) : Prop where
  kw : Kw s cb ob g j acc w wr
  kj : k ≤ j
  js : j ≤ s.size
  eq : comL (s.data.toList.drop k) = pre acc (j - k) (comG l (s.data.toList.drop j))
  nm : n = 10 * (s.size - j) + comK l
  ll : l ≤ 5
theorem com_acc {s : ByteArray} {k cb ob g l n j : Nat} {w wr : World} {acc : List UInt8} (h : ComI s k cb ob g l n w wr j acc) (hs : s.size ≤ 1000000) : acc.length ≤ 1000000000 := by
  have h1 := congrArg (fun r => r.1.length) h.eq
  simp only [pre, List.length_append] at h1
  have h2 : (comL (s.data.toList.drop k)).1.length ≤ 3 * (s.data.toList.drop k).length := by
    unfold comL
    split
    · simp
    · split
      · simp
      · rw [← (com_all _).1]
        have := (comM_len 0 (s.data.toList.drop k)).2
        omega
  rw [List.length_drop, size_list] at h2
  omega

/-- The frame at a label. -/
def ComF (s : ByteArray) (a : Int) (cb ob g : Nat) (a' : Act) : Prop :=
  ∃ u9 u10 u11 u12 u13 u14 u15 u16 u17 u18 u19 u20 u21 u22 u23 u24 u25 u26 u27 u28 u29 u30 u31 u32 u33 u34 u35 u36 u37 u38 u39 u40 u41 u42 u43 u44 u45 u46 u47 u48 u49 u50 u51 u52 u53 : Value, a' = { tmps := #[.string s, .int .i64 a, undef, undef, .string ⟨#[]⟩, .int .i64 0, .pointer (some ⟨cb, 0, none⟩), .pointer (some ⟨ob, 0, none⟩), .func (.func 121) #[] #[.pointer (some ⟨g, 0, none⟩)], u9, u10, u11, u12, u13, u14, u15, u16, u17, u18, u19, u20, u21, u22, u23, u24, u25, u26, u27, u28, u29, u30, u31, u32, u33, u34, u35, u36, u37, u38, u39, u40, u41, u42, u43, u44, u45, u46, u47, u48, u49, u50, u51, u52, u53], defers := [] }

theorem pre_0 {s : ByteArray} {j : Nat} {c : UInt8} (h : [c].isPrefixOf (s.data.toList.drop j) = false) : s.data.toList.drop j = [] ∨ ∃ b, b ≠ c ∧ s.data.toList.drop j = b :: s.data.toList.drop (j + 1) := by
  have e : s.data.toList.drop (j + 1) = (s.data.toList.drop j).drop 1 := by rw [List.drop_drop]
  rw [e]
  generalize s.data.toList.drop j = t at h
  cases t with
  | nil => exact .inl rfl
  | cons x t =>
    refine .inr ⟨x, ?_, rfl⟩
    rintro rfl
    simp [List.isPrefixOf] at h

theorem comG_0 (u : List UInt8) : comG 0 u = if [62].isPrefixOf u then ([], 1) else comM 1 u := rfl
theorem comG_2 (u : List UInt8) : comG 2 u = comM 0 u := rfl
theorem comG_3 (u : List UInt8) : comG 3 u = comM 2 u := rfl
theorem comG_4 (u : List UInt8) : comG 4 u = comM 1 u := rfl
theorem comG_5 (u : List UInt8) : comG 5 u = comM 3 u := rfl
theorem drop_full {s : ByteArray} {j : Nat} (h : s.data.toList.drop j = []) (hj : j ≤ s.size) : j = s.size := by
  have := List.drop_eq_nil_iff.1 h
  rw [size_list] at this
  omega
theorem com_start (t : List UInt8) : comL (45 :: t) = pre [] 1 (comG 0 t) := by
  rw [comG_0]
  unfold comL
  rw [if_neg (by simp [List.isPrefixOf])]
  by_cases h : [62].isPrefixOf t = true
  · rw [if_pos h, if_pos (by simpa [List.isPrefixOf] using h)]
    rfl
  · rw [if_neg h, if_neg (by simpa [List.isPrefixOf] using h), ← (com_all t).2.1]
theorem com_plain {u : List UInt8} (h1 : [45].isPrefixOf u = false) (h2 : [62].isPrefixOf u = false) : comL u = comG 2 u := by
  rw [comG_2, (com_all u).1]
  unfold comL
  rw [if_neg (by rw [h2]; simp), if_neg ?_]
  cases u with
  | nil => simp [List.isPrefixOf]
  | cons x t =>
    simp only [List.isPrefixOf] at h1 ⊢
    simp at h1 ⊢
    exact fun e => absurd e h1
theorem com_go {X G1 G2 : List UInt8 × Nat} {acc p : List UInt8} {k j n : Nat} (h : X = pre acc (j - k) G1) (h2 : G1 = pre p n G2) (hkj : k ≤ j) : X = pre (acc ++ p) (j + n - k) G2 := by
  rw [h, h2, pre_pre, show j - k + n = j + n - k by omega]
theorem comM_end (l : Nat) : comM l [] = ([], 0) := by unfold comM; rfl
/-- Behind hyphens that were read: they are kept, and it goes on as in a comment. -/
theorem comM_0' (b : UInt8) (t : List UInt8) : comM 0 (b :: t) = if b = 45 then pre [] 1 (comM 1 t) else pre (nul1 b) 1 (comM 0 t) := by rw [comM]
theorem comM_2' (b : UInt8) (t : List UInt8) : comM 2 (b :: t) = if b = 62 then ([], 1) else if b = 33 then pre [] 1 (comM 3 t) else if b = 45 then pre [45] 1 (comM 2 t) else pre (45 :: 45 :: nul1 b) 1 (comM 0 t) := by rw [comM]
theorem comM_1b {b : UInt8} (t : List UInt8) (h : b ≠ 45) : comM 1 (b :: t) = pre [45] 0 (comM 0 (b :: t)) := by
  rw [comM, if_neg h, comM, if_neg h, pre_pre]; rfl
theorem comM_2b {b : UInt8} (t : List UInt8) (h1 : b ≠ 62) (h2 : b ≠ 33) (h : b ≠ 45) : comM 2 (b :: t) = pre [45, 45] 0 (comM 0 (b :: t)) := by
  rw [comM_2', if_neg h1, if_neg h2, if_neg h, comM_0', if_neg h, pre_pre]; rfl
theorem comM_3b {b : UInt8} (t : List UInt8) (h1 : b ≠ 62) : comM 3 (b :: t) = pre [45, 45, 33] 0 (comM 0 (b :: t)) := by
  rw [comM_3, if_neg h1]
  by_cases h : b = 45
  · rw [if_pos h, comM_0', if_pos h, pre_pre]; rfl
  · rw [if_neg h, comM_0', if_neg h, pre_pre]; rfl
theorem nulL_1 : nulL [45] = [45] := rfl
theorem nulL_2 : nulL [45, 45] = [45, 45] := rfl
theorem nulL_3 : nulL [45, 45, 33] = [45, 45, 33] := rfl
theorem dash_none {u : List UInt8} (h : [45].isPrefixOf (u.drop (runN (fun b => b == 45) u)) = false) : u.drop (runN (fun b => b == 45) u) = [] := by
  rcases runN_drop (fun b => b == 45) u with h1 | ⟨b, t, h1, hb⟩
  · exact h1
  · have : b = 45 := by simpa using hb
    subst this
    rw [h1] at h
    simp [List.isPrefixOf] at h

theorem commentC (s : ByteArray) (a : Int) (m : Int) (hs : s.size ≤ 1000000) (w : World) (hm : w.cell? ⟨1, 0, none⟩ = some (.int .i64 m)) :
    Calls Tryz.prog 18 #[.string s, .int .i64 a] w fun e w' => e = .returned (.tuple #[.string (bl (comL (tlS s a)).1), .int .i64 ((clip s a + (comL (tlS s a)).2 : Nat) : Int)]) ∧ Below w.heap.size w w' := by
  have HC := Lib.hid (cursorAt s a (by unfold maxLen; omega))
  have HM := Lib.hid hm
  have hk := clip_le s a
  unfold tlS
  generalize clip s a = k at HC hk ⊢
  have HK := Lib.hid hk
  have HS := Lib.hid hs
  clear hm hk hs
  go_enter Tryz.func18, Tryz.ntmps18
  go_wp2_with fail
  refine wp_scope_gotos_k (fun l n a' w' => ∃ (cb ob g j : Nat) (acc : List UInt8), ComI s k cb ob g l n w w' j acc ∧ ComF s a cb ob g a') (fun l => if l = 0 then 1 else 0) ?hf ?first ?pass
  case hf =>
    rintro l n a' w' ⟨cb, ob, g, j, acc, hI, _⟩
    have hl := hI.ll
    have hcase : l = 0 ∨ l = 1 ∨ l = 2 ∨ l = 3 ∨ l = 4 ∨ l = 5 := by omega
    rcases hcase with rfl | rfl | rfl | rfl | rfl | rfl <;> exact ⟨_, rfl⟩
  case first =>
    intro _ J R hJ _
    have HJ := Lib.hid hJ
    clear hJ
    go_wp2_with fail
    refine (HC.out _).mono ?_
    rintro e w1 ⟨rfl, hb1⟩
    go_wp2_with fail
    have hat : At (w1.alloc (.cells #[.string s, .int .i64 k] 53)) w1.heap.size #[.string s, .int .i64 k] 53 s k := at_new rfl
    have hB : Below w.heap.size w (w1.alloc (.cells #[.string s, .int .i64 k] 53)) := below_alloc hb1 _
    have hle : w.heap.size ≤ w1.heap.size := hb1.size
    obtain ⟨w2, hw2⟩ : ∃ w2, w2 = w1.alloc (.cells #[.string s, .int .i64 k] 53) := ⟨_, rfl⟩
    have hz2 : w2.heap.size = w1.heap.size + 1 := by rw [hw2]; simp
    rw [← hw2] at hat hB ⊢
    rw [← hz2]
    obtain ⟨w3, hw3⟩ : ∃ w3, w3 = w2.alloc (.cells #[.pointer none, .slice none 0 0] 70) := ⟨_, rfl⟩
    have hN3 : w3.heap[w2.heap.size]? = some (.cells #[.pointer none, .slice none 0 0] 70 (0, 0)) := by rw [hw3]; show (w2.heap.push _)[w2.heap.size]? = _; exact Array.getElem?_push_size
    have hb3 : Below w2.heap.size w2 w3 := by rw [hw3]; exact below_alloc (Below.refl _ _) _
    have hz3 : w3.heap.size = w2.heap.size + 1 := by rw [hw3]; simp
    rw [← hw3]
    refine (keeper w2.heap.size w3).mono ?_
    rintro e w4 ⟨g, rfl, hg, hge, hb4⟩
    have hkw : Kw s w1.heap.size w2.heap.size g k [] w w4 :=
      ⟨(hat.below hb3).below hb4, ⟨builder_below (builder_fresh (by omega) hN3) hb4, hg, below_next (below_next hB hb3) hb4, by omega, by omega⟩, hle, by omega, by omega⟩
    generalize w2.heap.size = ob at hkw
    generalize w1.heap.size = cb at hkw
    have HKW := Lib.hid hkw
    have HT := Lib.hid (kw_took hkw ⟨#[45]⟩ 1 rfl HK.out (by have := HS.out; omega))
    clear hat hB hle hw2 hz2 hw3 hN3 hb3 hz3 hg hge hb4 hkw hb1
    go_wp2_with fail
    refine HT.out.mono ?_
    rintro e w5 (⟨rfl, hp, hj1, h5⟩ | ⟨rfl, hp, h5⟩)
    · have HP := Lib.hid hp
      have H5 := Lib.hid h5
      have HJ1 := Lib.hid hj1
      clear hp h5 hj1
      go_wp2_with fail
      go_step3
      show J 0 _ _
      refine HJ.out 0 _ _ _ ⟨cb, ob, g, k + 1, [], ⟨H5.out, by omega, HJ1.out, ?_, rfl, by omega⟩, by unfold ComF; (repeat apply Exists.intro); rfl⟩
      rw [pre_1 HP.out, show k + 1 - k = 1 by omega]
      exact com_start _
    · have HP := Lib.hid hp
      have HT2 := Lib.hid (kw_took h5 ⟨#[62]⟩ 1 rfl HK.out (by have := HS.out; omega))
      clear hp h5
      go_wp2_with fail
      refine HT2.out.mono ?_
      rintro e w6 (⟨rfl, hp2, hj1, h6⟩ | ⟨rfl, hp2, h6⟩)
      · have HP2 := Lib.hid hp2
        have H6 := Lib.hid h6
        have HJ1 := Lib.hid hj1
        clear hp2 h6 hj1
        go_wp2_with fail
        go_step3
        show J 1 _ _
        refine HJ.out 1 _ _ _ ⟨cb, ob, g, k + 1, [], ⟨H6.out, by omega, HJ1.out, ?_, rfl, by omega⟩, by unfold ComF; (repeat apply Exists.intro); rfl⟩
        rw [pre_1 HP2.out, show k + 1 - k = 1 by omega]
        rfl
      · have HP2 := Lib.hid hp2
        have H6 := Lib.hid h6
        clear hp2 h6
        go_wp2_with fail
        go_step3
        show J 2 _ _
        refine HJ.out 2 _ _ _ ⟨cb, ob, g, k, [], ⟨H6.out, Nat.le_refl _, HK.out, ?_, rfl, by omega⟩, by unfold ComF; (repeat apply Exists.intro); rfl⟩
        rw [Nat.sub_self, pre_nil]
        exact com_plain HP.out HP2.out
  case pass =>
    intro l hlow rest n a' w' hr hI J R hJ hR
    obtain ⟨cb, ob, g, j, acc, hI, u9, u10, u11, u12, u13, u14, u15, u16, u17, u18, u19, u20, u21, u22, u23, u24, u25, u26, u27, u28, u29, u30, u31, u32, u33, u34, u35, u36, u37, u38, u39, u40, u41, u42, u43, u44, u45, u46, u47, u48, u49, u50, u51, u52, u53, rfl⟩ := hI
    have HLOW := Lib.hid hlow
    have HJ := Lib.hid hJ
    have HR := Lib.hid hR
    have HI := Lib.hid hI
    have hal := com_acc hI HS.out
    have hkw := hI.kw
    have hll := hI.ll
    have hjs := hI.js
    have hcase : l = 0 ∨ l = 1 ∨ l = 2 ∨ l = 3 ∨ l = 4 ∨ l = 5 := by omega
    clear hlow hJ hR hI hll
    rcases hcase with rfl | rfl | rfl | rfl | rfl | rfl
    · injection hr with hr
      injection hr with _ hr
      subst hr
      have HTa := Lib.hid (kw_took hkw ⟨#[45]⟩ 1 rfl hjs (by have := HS.out; omega))
      clear hkw
      go_wp2_with fail
      refine HTa.out.mono ?_
      rintro e wa (⟨rfl, hp, hj1, hkw⟩ | ⟨rfl, hp, hkw⟩)
      · have HPa := Lib.hid hp
        have HKa := Lib.hid hkw
        have HJa := Lib.hid hj1
        clear hp hj1 hkw
        go_wp2_with fail
        go_step3
        show J 3 _ _
        refine HJ.out 3 (10 * (s.size - (j + 1)) + comK 3) _ _ (by have := HI.out.nm; simp only [comK] at this ⊢; have := HI.out.js; have := HJa.out; omega) ⟨cb, ob, g, j + 1, acc, ⟨HKa.out, by have := HI.out.kj; omega, HJa.out, ?_, rfl, by omega⟩, by unfold ComF; (repeat apply Exists.intro); rfl⟩
        have := com_go (p := []) HI.out.eq (show _ = pre [] 1 (comG 3 (s.data.toList.drop (j + 1))) by rw [pre_1 HPa.out]; rw [comG_0, if_neg (by simp [List.isPrefixOf]), comM, if_pos rfl]; rfl) HI.out.kj
        rwa [List.append_nil] at this
      · have HPa := Lib.hid hp
        clear hp
        have HTb := Lib.hid (kw_took hkw ⟨#[62]⟩ 1 rfl hjs (by have := HS.out; omega))
        clear hkw
        go_wp2_with fail
        refine HTb.out.mono ?_
        rintro e wb (⟨rfl, hp, hj1, hkw⟩ | ⟨rfl, hp, hkw⟩)
        · have HPb := Lib.hid hp
          have HKb := Lib.hid hkw
          have HJb := Lib.hid hj1
          clear hp hj1 hkw
          go_wp2_with fail
          go_step3
          show J 1 _ _
          refine HJ.out 1 (10 * (s.size - (j + 1)) + comK 1) _ _ (by have := HI.out.nm; simp only [comK] at this ⊢; have := HI.out.js; have := HJb.out; omega) ⟨cb, ob, g, j + 1, acc, ⟨HKb.out, by have := HI.out.kj; omega, HJb.out, ?_, rfl, by omega⟩, by unfold ComF; (repeat apply Exists.intro); rfl⟩
          have := com_go (p := []) HI.out.eq (show _ = pre [] 1 (comG 1 (s.data.toList.drop (j + 1))) by rw [pre_1 HPb.out]; rw [comG_0, if_pos (by simp [List.isPrefixOf])]; rfl) HI.out.kj
          rwa [List.append_nil] at this
        · have HPb := Lib.hid hp
          clear hp
          have HEc := Lib.hid (kw_ended hkw hjs _ rfl)
          clear hkw
          by_cases hend : j = s.size
          · rw [decide_eq_true hend] at HEc
            have HEND := Lib.hid hend
            clear hend
            go_wp2_with fail
            refine HEc.out.mono ?_
            rintro e wc ⟨rfl, hkw⟩
            have HKc := Lib.hid hkw
            clear hkw
            go_wp2_with fail
            go_step3
            show J 1 _ _
            refine HJ.out 1 (10 * (s.size - (j)) + comK 1) _ _ (by have := HI.out.nm; simp only [comK] at this ⊢; have := HI.out.js; have := HI.out.js; omega) ⟨cb, ob, g, j, acc, ⟨HKc.out, by have := HI.out.kj; omega, HI.out.js, ?_, rfl, by omega⟩, by unfold ComF; (repeat apply Exists.intro); rfl⟩
            have := com_go (p := []) (n := 0) HI.out.eq (show _ = pre [] 0 (comG 1 (s.data.toList.drop j)) by rw [HEND.out, drop_end s _ (Nat.le_refl _)]; first | rfl | (rw [comG_0, if_neg (by simp [List.isPrefixOf])]; rfl)) HI.out.kj
            rwa [List.append_nil] at this
          · rw [decide_eq_false hend] at HEc
            have HEND := Lib.hid hend
            clear hend
            go_wp2_with fail
            refine HEc.out.mono ?_
            rintro e wc ⟨rfl, hkw⟩
            have HKed := Lib.hid (kw_keep hkw HM.out ⟨#[45]⟩ (by decide) hal)
            clear hkw
            go_wp2_with fail
            refine HKed.out.mono ?_
            rintro e wd ⟨rfl, hkw⟩
            have HKd := Lib.hid hkw
            clear hkw
            go_wp2_with fail
            go_step3
            go_step
            go_step
            refine HLOW.out 2 (by decide) _ (10 * (s.size - j) + comK 2) _ _ rfl ?_ J R (fun l' n' a' w' h1 h2 => HJ.out l' n' a' w' (by have := HI.out.nm; simp only [comK] at this h1; have := HI.out.js; omega) h2) HR.out
            refine ⟨cb, ob, g, j, acc ++ [45], ⟨HKd.out, HI.out.kj, HI.out.js, ?_, rfl, by omega⟩, by unfold ComF; (repeat apply Exists.intro); rfl⟩
            refine com_go (n := 0) HI.out.eq ?_ HI.out.kj
            rcases pre_0 HPa.out with h | ⟨x, hx, h⟩
            · exact absurd (drop_full h HI.out.js) HEND.out
            · rw [comG_0, if_neg (by rw [HPb.out]; simp), h, comM_1b _ hx]
              rfl
    · injection hr with hr
      injection hr with _ hr
      subst hr
      have hk1 : At w' cb #[.string s, .int .i64 j] 53 s j := hkw.cur
      have c1 := hk1.cell1
      have HST : Hid (∀ n, Calls Tryz.prog 62 #[.pointer (some ⟨ob, 0, none⟩)] (w'.drewN n) fun e w' => e = .returned (.string (bl acc)) ∧ w'.cell? ⟨cb, 1, none⟩ = some (.int .i64 j) ∧ Below w.heap.size w w') := Lib.hid (by
        intro n
        refine (kw_string (kw_below hkw (_root_.Go.below_drewN (Below.refl _ _) n))).mono ?_
        rintro e w' ⟨rfl, h⟩
        exact ⟨rfl, h.cur.cell1, h.rsv.bel⟩)
      clear hk1 hkw
      go_wp2_with fail
      go_region_with (first | (go_at_call 62; refine (HST.out 1).mono ?_; rintro e w5 ⟨rfl, c2, hb5⟩))
      all_goals
        go_wp2_with fail
        show R _ _
        refine HR.out _ _ ?_
        go_ret2
        have he := HI.out.eq
        have hkj := HI.out.kj
        rw [he]
        exact ⟨ret2_SI' (by simp [pre, comG]) (by simp [pre, comG]; omega), hb5⟩
    · injection hr with hr
      injection hr with _ hr
      subst hr
      have HU := Lib.hid (kw_until hkw 61 (fun args w => enters_of Tryz.func61 (by kernel_rfl) rfl args w) (fun r => decide ((r : Int) = 45)) false hi_dash _ q_dash grows_dash hjs (by have := HS.out; omega))
      clear hkw
      go_wp2_with fail
      refine HU.out.mono ?_
      rintro e wu ⟨N, V, hN, hjN, rfl, hV, hVz, hkw⟩
      have HKe := Lib.hid (kw_keep hkw HM.out V (by have := HS.out; omega) hal)
      have HN := Lib.hid hN
      have HJN := Lib.hid hjN
      have HV := Lib.hid hV
      clear hkw hN hV hVz
      go_wp2_with fail
      refine HKe.out.mono ?_
      rintro e wk ⟨rfl, hkw⟩
      have hrun : comG 2 (s.data.toList.drop j) = pre (nulL V.data.toList) N (comM 0 (s.data.toList.drop (j + N))) := by
        rw [comG_2, HV.out, ← List.drop_drop]
        refine comM_run N _ ?_ (by rw [List.length_drop, size_list]; have := HJN.out; omega)
        rw [HN.out]
        exact runN_ne 45 _
      have HRUN := Lib.hid hrun
      clear hrun
      have HTa := Lib.hid (kw_took hkw ⟨#[45]⟩ 1 rfl hjN (by have := HS.out; omega))
      clear hkw
      go_wp2_with fail
      refine HTa.out.mono ?_
      rintro e wa (⟨rfl, hp, hj1, hkw⟩ | ⟨rfl, hp, hkw⟩)
      · have HPa := Lib.hid hp
        have HKa := Lib.hid hkw
        have HJa := Lib.hid hj1
        clear hp hj1 hkw
        go_wp2_with fail
        go_step3
        show J 4 _ _
        refine HJ.out 4 (10 * (s.size - (j + N + 1)) + comK 4) _ _ (by have := HI.out.nm; simp only [comK] at this ⊢; have := HI.out.js; have := HJa.out; omega) ⟨cb, ob, g, j + N + 1, acc ++ nulL V.data.toList, ⟨HKa.out, by have := HI.out.kj; omega, HJa.out, ?_, rfl, by omega⟩, by unfold ComF; (repeat apply Exists.intro); rfl⟩
        have := com_go (p := nulL V.data.toList) (n := N + 1) HI.out.eq (show _ = pre (nulL V.data.toList) (N + 1) (comG 4 (s.data.toList.drop (j + N + 1))) by rw [HRUN.out, pre_1 HPa.out, comM, if_pos rfl, pre_pre, List.append_nil]; rfl) HI.out.kj
        exact this
      · have HPa := Lib.hid hp
        clear hp
        have HKb := Lib.hid hkw
        clear hkw
        go_wp2_with fail
        go_step3
        show J 1 _ _
        refine HJ.out 1 (10 * (s.size - (j + N)) + comK 1) _ _ (by have := HI.out.nm; simp only [comK] at this ⊢; have := HI.out.js; have := HJN.out; omega) ⟨cb, ob, g, j + N, acc ++ nulL V.data.toList, ⟨HKb.out, by have := HI.out.kj; omega, HJN.out, ?_, rfl, by omega⟩, by unfold ComF; (repeat apply Exists.intro); rfl⟩
        refine com_go HI.out.eq ?_ HI.out.kj
        have hd : s.data.toList.drop (j + N) = [] := by
          have hp := HPa.out
          rw [HN.out, ← List.drop_drop] at hp ⊢
          exact dash_none hp
        rw [HRUN.out, hd]
        rfl
    · injection hr with hr
      injection hr with _ hr
      subst hr
      have HTa := Lib.hid (kw_took hkw ⟨#[62]⟩ 1 rfl hjs (by have := HS.out; omega))
      clear hkw
      go_wp2_with fail
      refine HTa.out.mono ?_
      rintro e wa (⟨rfl, hp, hj1, hkw⟩ | ⟨rfl, hp, hkw⟩)
      · have HPa := Lib.hid hp
        have HKa := Lib.hid hkw
        have HJa := Lib.hid hj1
        clear hp hj1 hkw
        go_wp2_with fail
        go_step3
        show J 1 _ _
        refine HJ.out 1 (10 * (s.size - (j + 1)) + comK 1) _ _ (by have := HI.out.nm; simp only [comK] at this ⊢; have := HI.out.js; have := HJa.out; omega) ⟨cb, ob, g, j + 1, acc, ⟨HKa.out, by have := HI.out.kj; omega, HJa.out, ?_, rfl, by omega⟩, by unfold ComF; (repeat apply Exists.intro); rfl⟩
        have := com_go (p := []) HI.out.eq (show _ = pre [] 1 (comG 1 (s.data.toList.drop (j + 1))) by rw [pre_1 HPa.out]; rw [comG_3, comM, if_pos rfl]; rfl) HI.out.kj
        rwa [List.append_nil] at this
      · have HPa := Lib.hid hp
        clear hp
        have HEc := Lib.hid (kw_ended hkw hjs _ rfl)
        clear hkw
        by_cases hend : j = s.size
        · rw [decide_eq_true hend] at HEc
          have HEND := Lib.hid hend
          clear hend
          go_wp2_with fail
          refine HEc.out.mono ?_
          rintro e wc ⟨rfl, hkw⟩
          have HKc := Lib.hid hkw
          clear hkw
          go_wp2_with fail
          go_step3
          show J 1 _ _
          refine HJ.out 1 (10 * (s.size - (j)) + comK 1) _ _ (by have := HI.out.nm; simp only [comK] at this ⊢; have := HI.out.js; have := HI.out.js; omega) ⟨cb, ob, g, j, acc, ⟨HKc.out, by have := HI.out.kj; omega, HI.out.js, ?_, rfl, by omega⟩, by unfold ComF; (repeat apply Exists.intro); rfl⟩
          have := com_go (p := []) (n := 0) HI.out.eq (show _ = pre [] 0 (comG 1 (s.data.toList.drop j)) by rw [HEND.out, drop_end s _ (Nat.le_refl _)]; first | rfl | (rw [comG_0, if_neg (by simp [List.isPrefixOf])]; rfl)) HI.out.kj
          rwa [List.append_nil] at this
        · rw [decide_eq_false hend] at HEc
          have HEND := Lib.hid hend
          clear hend
          go_wp2_with fail
          refine HEc.out.mono ?_
          rintro e wc ⟨rfl, hkw⟩
          have HTb := Lib.hid (kw_took hkw ⟨#[33]⟩ 1 rfl hjs (by have := HS.out; omega))
          clear hkw
          go_wp2_with fail
          refine HTb.out.mono ?_
          rintro e wb (⟨rfl, hp, hj1, hkw⟩ | ⟨rfl, hp, hkw⟩)
          · have HPb := Lib.hid hp
            have HKb := Lib.hid hkw
            have HJb := Lib.hid hj1
            clear hp hj1 hkw
            go_wp2_with fail
            go_step3
            show J 5 _ _
            refine HJ.out 5 (10 * (s.size - (j + 1)) + comK 5) _ _ (by have := HI.out.nm; simp only [comK] at this ⊢; have := HI.out.js; have := HJb.out; omega) ⟨cb, ob, g, j + 1, acc, ⟨HKb.out, by have := HI.out.kj; omega, HJb.out, ?_, rfl, by omega⟩, by unfold ComF; (repeat apply Exists.intro); rfl⟩
            have := com_go (p := []) HI.out.eq (show _ = pre [] 1 (comG 5 (s.data.toList.drop (j + 1))) by rw [pre_1 HPb.out]; rw [comG_3, comM, if_neg (by decide), if_pos rfl]; rfl) HI.out.kj
            rwa [List.append_nil] at this
          · have HPb := Lib.hid hp
            clear hp
            have HTd := Lib.hid (kw_took hkw ⟨#[45]⟩ 1 rfl hjs (by have := HS.out; omega))
            clear hkw
            go_wp2_with fail
            refine HTd.out.mono ?_
            rintro e wd (⟨rfl, hp, hj1, hkw⟩ | ⟨rfl, hp, hkw⟩)
            · have HPd := Lib.hid hp
              have HKd := Lib.hid hkw
              have HJd := Lib.hid hj1
              clear hp hj1 hkw
              have hkw := HKd.out
              go_wp2_with fail
              have HKee := Lib.hid (kw_keep hkw HM.out ⟨#[45]⟩ (by decide) hal)
              clear hkw
              go_wp2_with fail
              refine HKee.out.mono ?_
              rintro e we ⟨rfl, hkw⟩
              have HKe := Lib.hid hkw
              clear hkw
              go_wp2_with fail
              go_step3
              show J 3 _ _
              refine HJ.out 3 (10 * (s.size - (j + 1)) + comK 3) _ _ (by have := HI.out.nm; simp only [comK] at this ⊢; have := HI.out.js; have := HJd.out; omega) ⟨cb, ob, g, j + 1, acc ++ [45], ⟨HKe.out, by have := HI.out.kj; omega, HJd.out, ?_, rfl, by omega⟩, by unfold ComF; (repeat apply Exists.intro); rfl⟩
              exact com_go HI.out.eq (show _ = pre [45] 1 (comG 3 (s.data.toList.drop (j + 1))) by rw [comG_3, pre_1 HPd.out, comM, if_neg (by decide), if_neg (by decide), if_pos rfl]; rfl) HI.out.kj
            · have HPd := Lib.hid hp
              clear hp
              have HKee := Lib.hid (kw_keep hkw HM.out ⟨#[45, 45]⟩ (by decide) hal)
              clear hkw
              go_wp2_with fail
              refine HKee.out.mono ?_
              rintro e we ⟨rfl, hkw⟩
              have HKe := Lib.hid hkw
              clear hkw
              go_wp2_with fail
              go_step3
              show J 2 _ _
              refine HJ.out 2 (10 * (s.size - (j)) + comK 2) _ _ (by have := HI.out.nm; simp only [comK] at this ⊢; have := HI.out.js; have := HI.out.js; omega) ⟨cb, ob, g, j, acc ++ [45, 45], ⟨HKe.out, by have := HI.out.kj; omega, HI.out.js, ?_, rfl, by omega⟩, by unfold ComF; (repeat apply Exists.intro); rfl⟩
              refine com_go (n := 0) HI.out.eq ?_ HI.out.kj
              rcases pre_0 HPa.out with h | ⟨x, hx, h⟩
              · exact absurd (drop_full h HI.out.js) HEND.out
              · rcases pre_0 HPb.out with h2 | ⟨x2, hx2, h2⟩
                · rw [h] at h2; cases h2
                · rcases pre_0 HPd.out with h3 | ⟨x3, hx3, h3⟩
                  · rw [h] at h3; cases h3
                  · rw [h] at h2 h3
                    injection h2 with e2 _
                    injection h3 with e3 _
                    subst e2 e3
                    rw [comG_3, h, comM_2b _ hx hx2 hx3]
                    rfl
    · injection hr with hr
      injection hr with _ hr
      subst hr
      have HTa := Lib.hid (kw_took hkw ⟨#[45]⟩ 1 rfl hjs (by have := HS.out; omega))
      clear hkw
      go_wp2_with fail
      refine HTa.out.mono ?_
      rintro e wa (⟨rfl, hp, hj1, hkw⟩ | ⟨rfl, hp, hkw⟩)
      · have HPa := Lib.hid hp
        have HKa := Lib.hid hkw
        have HJa := Lib.hid hj1
        clear hp hj1 hkw
        go_wp2_with fail
        go_step3
        show J 3 _ _
        refine HJ.out 3 (10 * (s.size - (j + 1)) + comK 3) _ _ (by have := HI.out.nm; simp only [comK] at this ⊢; have := HI.out.js; have := HJa.out; omega) ⟨cb, ob, g, j + 1, acc, ⟨HKa.out, by have := HI.out.kj; omega, HJa.out, ?_, rfl, by omega⟩, by unfold ComF; (repeat apply Exists.intro); rfl⟩
        have := com_go (p := []) HI.out.eq (show _ = pre [] 1 (comG 3 (s.data.toList.drop (j + 1))) by rw [pre_1 HPa.out]; rw [comG_4, comM, if_pos rfl]; rfl) HI.out.kj
        rwa [List.append_nil] at this
      · have HPa := Lib.hid hp
        clear hp
        have HEc := Lib.hid (kw_ended hkw hjs _ rfl)
        clear hkw
        by_cases hend : j = s.size
        · rw [decide_eq_true hend] at HEc
          have HEND := Lib.hid hend
          clear hend
          go_wp2_with fail
          refine HEc.out.mono ?_
          rintro e wc ⟨rfl, hkw⟩
          have HKc := Lib.hid hkw
          clear hkw
          go_wp2_with fail
          go_step3
          show J 1 _ _
          refine HJ.out 1 (10 * (s.size - (j)) + comK 1) _ _ (by have := HI.out.nm; simp only [comK] at this ⊢; have := HI.out.js; have := HI.out.js; omega) ⟨cb, ob, g, j, acc, ⟨HKc.out, by have := HI.out.kj; omega, HI.out.js, ?_, rfl, by omega⟩, by unfold ComF; (repeat apply Exists.intro); rfl⟩
          have := com_go (p := []) (n := 0) HI.out.eq (show _ = pre [] 0 (comG 1 (s.data.toList.drop j)) by rw [HEND.out, drop_end s _ (Nat.le_refl _)]; first | rfl | (rw [comG_0, if_neg (by simp [List.isPrefixOf])]; rfl)) HI.out.kj
          rwa [List.append_nil] at this
        · rw [decide_eq_false hend] at HEc
          have HEND := Lib.hid hend
          clear hend
          go_wp2_with fail
          refine HEc.out.mono ?_
          rintro e wc ⟨rfl, hkw⟩
          have HKee := Lib.hid (kw_keep hkw HM.out ⟨#[45]⟩ (by decide) hal)
          clear hkw
          go_wp2_with fail
          refine HKee.out.mono ?_
          rintro e we ⟨rfl, hkw⟩
          have HKe := Lib.hid hkw
          clear hkw
          go_wp2_with fail
          go_step3
          show J 2 _ _
          refine HJ.out 2 (10 * (s.size - (j)) + comK 2) _ _ (by have := HI.out.nm; simp only [comK] at this ⊢; have := HI.out.js; have := HI.out.js; omega) ⟨cb, ob, g, j, acc ++ [45], ⟨HKe.out, by have := HI.out.kj; omega, HI.out.js, ?_, rfl, by omega⟩, by unfold ComF; (repeat apply Exists.intro); rfl⟩
          refine com_go (n := 0) HI.out.eq ?_ HI.out.kj
          rcases pre_0 HPa.out with h | ⟨x, hx, h⟩
          · exact absurd (drop_full h HI.out.js) HEND.out
          · rw [comG_4, h, comM_1b _ hx]
            rfl
    · injection hr with hr
      injection hr with _ hr
      subst hr
      have HTa := Lib.hid (kw_took hkw ⟨#[62]⟩ 1 rfl hjs (by have := HS.out; omega))
      clear hkw
      go_wp2_with fail
      refine HTa.out.mono ?_
      rintro e wa (⟨rfl, hp, hj1, hkw⟩ | ⟨rfl, hp, hkw⟩)
      · have HPa := Lib.hid hp
        have HKa := Lib.hid hkw
        have HJa := Lib.hid hj1
        clear hp hj1 hkw
        go_wp2_with fail
        go_step3
        show J 1 _ _
        refine HJ.out 1 (10 * (s.size - (j + 1)) + comK 1) _ _ (by have := HI.out.nm; simp only [comK] at this ⊢; have := HI.out.js; have := HJa.out; omega) ⟨cb, ob, g, j + 1, acc, ⟨HKa.out, by have := HI.out.kj; omega, HJa.out, ?_, rfl, by omega⟩, by unfold ComF; (repeat apply Exists.intro); rfl⟩
        have := com_go (p := []) HI.out.eq (show _ = pre [] 1 (comG 1 (s.data.toList.drop (j + 1))) by rw [pre_1 HPa.out]; rw [comG_5, comM_3, if_pos rfl]; rfl) HI.out.kj
        rwa [List.append_nil] at this
      · have HPa := Lib.hid hp
        clear hp
        have HEc := Lib.hid (kw_ended hkw hjs _ rfl)
        clear hkw
        by_cases hend : j = s.size
        · rw [decide_eq_true hend] at HEc
          have HEND := Lib.hid hend
          clear hend
          go_wp2_with fail
          refine HEc.out.mono ?_
          rintro e wc ⟨rfl, hkw⟩
          have HKc := Lib.hid hkw
          clear hkw
          go_wp2_with fail
          go_step3
          show J 1 _ _
          refine HJ.out 1 (10 * (s.size - (j)) + comK 1) _ _ (by have := HI.out.nm; simp only [comK] at this ⊢; have := HI.out.js; have := HI.out.js; omega) ⟨cb, ob, g, j, acc, ⟨HKc.out, by have := HI.out.kj; omega, HI.out.js, ?_, rfl, by omega⟩, by unfold ComF; (repeat apply Exists.intro); rfl⟩
          have := com_go (p := []) (n := 0) HI.out.eq (show _ = pre [] 0 (comG 1 (s.data.toList.drop j)) by rw [HEND.out, drop_end s _ (Nat.le_refl _)]; first | rfl | (rw [comG_0, if_neg (by simp [List.isPrefixOf])]; rfl)) HI.out.kj
          rwa [List.append_nil] at this
        · rw [decide_eq_false hend] at HEc
          have HEND := Lib.hid hend
          clear hend
          go_wp2_with fail
          refine HEc.out.mono ?_
          rintro e wc ⟨rfl, hkw⟩
          have HKee := Lib.hid (kw_keep hkw HM.out ⟨#[45, 45, 33]⟩ (by decide) hal)
          clear hkw
          go_wp2_with fail
          refine HKee.out.mono ?_
          rintro e we ⟨rfl, hkw⟩
          have HKe := Lib.hid hkw
          clear hkw
          go_wp2_with fail
          go_step3
          show J 2 _ _
          refine HJ.out 2 (10 * (s.size - (j)) + comK 2) _ _ (by have := HI.out.nm; simp only [comK] at this ⊢; have := HI.out.js; have := HI.out.js; omega) ⟨cb, ob, g, j, acc ++ [45, 45, 33], ⟨HKe.out, by have := HI.out.kj; omega, HI.out.js, ?_, rfl, by omega⟩, by unfold ComF; (repeat apply Exists.intro); rfl⟩
          refine com_go (n := 0) HI.out.eq ?_ HI.out.kj
          rcases pre_0 HPa.out with h | ⟨x, hx, h⟩
          · exact absurd (drop_full h HI.out.js) HEND.out
          · rw [comG_5, h, comM_3b _ hx]
            rfl
end Go.Proofs.YtbjnolihaacahaaGreatDoor
