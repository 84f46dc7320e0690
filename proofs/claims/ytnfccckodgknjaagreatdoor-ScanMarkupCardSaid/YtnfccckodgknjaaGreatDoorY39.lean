/-
  Comment.
  Script data: double escaped.
  Script data.
-/
import Derived.Test.YtnfccckodgknjaaGreatDoorY38
import Derived.Test.YtnfccckodgknjaaGreatDoorY12
import Derived.Test.YtnfccckodgknjaaGreatDoorY33
namespace Go.Proofs.YtnfccckodgknjaaGreatDoor
open Go.RowKit Go.Shelf Go.Lib
set_option maxHeartbeats 4000000
set_option maxRecDepth 100000

theorem isDash (r : Int) (w : World) : Calls Tryz.prog 107 #[.int .i32 r] w fun e w' => e = .returned (.bool (decide (r = 45))) ∧ Below w.heap.size w w' := by
  go_enter Tryz.func107, Tryz.ntmps107
  go_wp2
  go_ret
  exact ⟨ret_bool (by rw [Bool.eq_iff_iff]; simp), by (repeat' (first | (with_reducible exact Below.refl _ _) | (with_reducible assumption) | (with_reducible refine below_alloc ?_ _) | (with_reducible refine Below.drew ?_) | (with_reducible refine _root_.Go.below_drewN ?_ _) | (with_reducible refine Below.setCell ?_ ?_ _) | go_size | (refine below_next ?_ (by assumption))))⟩
theorem grows_dash (w : World) : PredGrows Tryz.prog 107 #[] (fun r => decide ((r : Int) = 45)) w := fun W x _ _ => isDash x W
theorem hi_dash : ∀ r : Nat, 128 ≤ r → r ≤ 1114111 → decide ((r : Int) = 45) = false := fun r h _ => decide_eq_false (by omega)
theorem q_dash : (qOf fun r => decide ((r : Int) = 45)) = fun b => b == 45 := q_one 45 45 rfl

/-- What is still read from each label on: startDash 0, done 1, comment 2, end 3, endDash 4, endBang 5. -/
def comG : Nat → List UInt8 → List UInt8 × Nat
  | 0, u => if [62].isPrefixOf u then ([], 1) else comM 1 u
  | 1, _ => ([], 0)
  | 2, u => comM 0 u
  | 3, u => comM 2 u
  | 4, u => comM 1 u
  | _, u => comM 3 u
def comK : Nat → Nat
  | 1 => 0
  | 2 => 1
  | _ => 2

/-- At a label: the cursor at j, what has been kept, and what it makes with what is still to be read. -/
structure ComI (s : ByteArray) (k cb ob g l n : Nat) (w wr : World) (j : Nat) (acc : List UInt8) : Prop where
  kw : Kw s cb ob g j acc w wr
  kj : k ≤ j
  js : j ≤ s.size
  eq : comL (s.data.toList.drop k) = pre acc (j - k) (comG l (s.data.toList.drop j))
  nm : n = 10 * (s.size - j) + comK l
  ll : l ≤ 5
theorem com_acc {s : ByteArray} {k cb ob g l n j : Nat} {w wr : World} {acc : List UInt8} (h : ComI s k cb ob g l n w wr j acc) (hs : s.size ≤ 1000000) : acc.length ≤ 1000000000 := by
  have h1 := congrArg (fun r => r.1.length) h.eq
  simp only [pre, List.length_append] at h1
  have h2 : (comL (s.data.toList.drop k)).1.length ≤ 3 * (s.data.toList.drop k).length := by
    unfold comL
    split
    · simp
    · split
      · simp
      · rw [← (com_all _).1]
        have := (comM_len 0 (s.data.toList.drop k)).2
        omega
  rw [List.length_drop, size_list] at h2
  omega

/-- The frame at a label. -/
def ComF (s : ByteArray) (a : Int) (cb ob g : Nat) (a' : Act) : Prop :=
  ∃ u9 u10 u11 u12 u13 u14 u15 u16 u17 u18 u19 u20 u21 u22 u23 u24 u25 u26 u27 u28 u29 u30 u31 u32 u33 u34 u35 u36 u37 u38 u39 u40 u41 u42 u43 u44 u45 u46 u47 u48 u49 u50 u51 u52 u53 : Value, a' = { tmps := #[.string s, .int .i64 a, undef, undef, .string ⟨#[]⟩, .int .i64 0, .pointer (some ⟨cb, 0, none⟩), .pointer (some ⟨ob, 0, none⟩), .func (.func 176) #[] #[.pointer (some ⟨g, 0, none⟩)], u9, u10, u11, u12, u13, u14, u15, u16, u17, u18, u19, u20, u21, u22, u23, u24, u25, u26, u27, u28, u29, u30, u31, u32, u33, u34, u35, u36, u37, u38, u39, u40, u41, u42, u43, u44, u45, u46, u47, u48, u49, u50, u51, u52, u53], defers := [] }

theorem pre_0 {s : ByteArray} {j : Nat} {c : UInt8} (h : [c].isPrefixOf (s.data.toList.drop j) = false) : s.data.toList.drop j = [] ∨ ∃ b, b ≠ c ∧ s.data.toList.drop j = b :: s.data.toList.drop (j + 1) := by
  have e : s.data.toList.drop (j + 1) = (s.data.toList.drop j).drop 1 := by rw [List.drop_drop]
  rw [e]
  generalize s.data.toList.drop j = t at h
  cases t with
  | nil => exact .inl rfl
  | cons x t =>
    refine .inr ⟨x, ?_, rfl⟩
    rintro rfl
    simp [List.isPrefixOf] at h

theorem comG_0 (u : List UInt8) : comG 0 u = if [62].isPrefixOf u then ([], 1) else comM 1 u := rfl
theorem comG_2 (u : List UInt8) : comG 2 u = comM 0 u := rfl
theorem comG_3 (u : List UInt8) : comG 3 u = comM 2 u := rfl
theorem comG_4 (u : List UInt8) : comG 4 u = comM 1 u := rfl
theorem comG_5 (u : List UInt8) : comG 5 u = comM 3 u := rfl
theorem drop_full {s : ByteArray} {j : Nat} (h : s.data.toList.drop j = []) (hj : j ≤ s.size) : j = s.size := by
  have := List.drop_eq_nil_iff.1 h
  rw [size_list] at this
  omega
theorem com_start (t : List UInt8) : comL (45 :: t) = pre [] 1 (comG 0 t) := by
  rw [comG_0]
  unfold comL
  rw [if_neg (by simp [List.isPrefixOf])]
  by_cases h : [62].isPrefixOf t = true
  · rw [if_pos h, if_pos (by simpa [List.isPrefixOf] using h)]
    rfl
  · rw [if_neg h, if_neg (by simpa [List.isPrefixOf] using h), ← (com_all t).2.1]
theorem com_plain {u : List UInt8} (h1 : [45].isPrefixOf u = false) (h2 : [62].isPrefixOf u = false) : comL u = comG 2 u := by
  rw [comG_2, (com_all u).1]
  unfold comL
  rw [if_neg (by rw [h2]; simp), if_neg ?_]
  cases u with
  | nil => simp [List.isPrefixOf]
  | cons x t =>
    simp only [List.isPrefixOf] at h1 ⊢
    simp at h1 ⊢
    exact fun e => absurd e h1
theorem com_go {X G1 G2 : List UInt8 × Nat} {acc p : List UInt8} {k j n : Nat} (h : X = pre acc (j - k) G1) (h2 : G1 = pre p n G2) (hkj : k ≤ j) : X = pre (acc ++ p) (j + n - k) G2 := by
  rw [h, h2, pre_pre, show j - k + n = j + n - k by omega]
/-- Behind hyphens that were read: they are kept, and it goes on as in a comment. -/
theorem comM_0' (b : UInt8) (t : List UInt8) : comM 0 (b :: t) = if b = 45 then pre [] 1 (comM 1 t) else pre (nul1 b) 1 (comM 0 t) := by rw [comM]
theorem comM_2' (b : UInt8) (t : List UInt8) : comM 2 (b :: t) = if b = 62 then ([], 1) else if b = 33 then pre [] 1 (comM 3 t) else if b = 45 then pre [45] 1 (comM 2 t) else pre (45 :: 45 :: nul1 b) 1 (comM 0 t) := by rw [comM]
theorem comM_1b {b : UInt8} (t : List UInt8) (h : b ≠ 45) : comM 1 (b :: t) = pre [45] 0 (comM 0 (b :: t)) := by
  rw [comM, if_neg h, comM, if_neg h, pre_pre]; rfl
theorem comM_2b {b : UInt8} (t : List UInt8) (h1 : b ≠ 62) (h2 : b ≠ 33) (h : b ≠ 45) : comM 2 (b :: t) = pre [45, 45] 0 (comM 0 (b :: t)) := by
  rw [comM_2', if_neg h1, if_neg h2, if_neg h, comM_0', if_neg h, pre_pre]; rfl
theorem comM_3b {b : UInt8} (t : List UInt8) (h1 : b ≠ 62) : comM 3 (b :: t) = pre [45, 45, 33] 0 (comM 0 (b :: t)) := by
  rw [comM_3, if_neg h1]
  by_cases h : b = 45
  · rw [if_pos h, comM_0', if_pos h, pre_pre]; rfl
  · rw [if_neg h, comM_0', if_neg h, pre_pre]; rfl
theorem dash_none {u : List UInt8} (h : [45].isPrefixOf (u.drop (runN (fun b => b == 45) u)) = false) : u.drop (runN (fun b => b == 45) u) = [] := by
  rcases runN_drop (fun b => b == 45) u with h1 | ⟨b, t, h1, hb⟩
  · exact h1
  · have : b = 45 := by simpa using hb
    subst this
    rw [h1] at h
    simp [List.isPrefixOf] at h

theorem commentC (s : ByteArray) (a : Int) (m : Int) (hs : s.size ≤ 1000000) (w : World) (hm : w.cell? ⟨1, 0, none⟩ = some (.int .i64 m)) :
    Calls Tryz.prog 50 #[.string s, .int .i64 a] w fun e w' => e = .returned (.tuple #[.string (bl (comL (tlS s a)).1), .int .i64 ((clip s a + (comL (tlS s a)).2 : Nat) : Int)]) ∧ Below w.heap.size w w' := by
  have HC := Lib.hid (cursorAt s a (by unfold maxLen; omega))
  have HM := Lib.hid hm
  have hk := clip_le s a
  unfold tlS
  generalize clip s a = k at HC hk ⊢
  have HK := Lib.hid hk
  have HS := Lib.hid hs
  clear hm hk hs
  go_enter Tryz.func50, Tryz.ntmps50
  go_wp2_with fail
  refine wp_scope_gotos_k (fun l n a' w' => ∃ (cb ob g j : Nat) (acc : List UInt8), ComI s k cb ob g l n w w' j acc ∧ ComF s a cb ob g a') (fun l => if l = 0 then 1 else 0) ?hf ?first ?pass
  case hf =>
    rintro l n a' w' ⟨cb, ob, g, j, acc, hI, _⟩
    have hl := hI.ll
    have hcase : l = 0 ∨ l = 1 ∨ l = 2 ∨ l = 3 ∨ l = 4 ∨ l = 5 := by omega
    rcases hcase with rfl | rfl | rfl | rfl | rfl | rfl <;> exact ⟨_, rfl⟩
  case first =>
    intro _ J R hJ _
    have HJ := Lib.hid hJ
    clear hJ
    go_wp2_with fail
    refine (HC.out _).mono ?_
    rintro e w1 ⟨rfl, hb1⟩
    go_wp2_with fail
    have hat : At (w1.alloc (.cells #[.string s, .int .i64 k] 79)) w1.heap.size #[.string s, .int .i64 k] 79 s k := at_new rfl
    have hB : Below w.heap.size w (w1.alloc (.cells #[.string s, .int .i64 k] 79)) := below_alloc hb1 _
    have hle : w.heap.size ≤ w1.heap.size := hb1.size
    obtain ⟨w2, hw2⟩ : ∃ w2, w2 = w1.alloc (.cells #[.string s, .int .i64 k] 79) := ⟨_, rfl⟩
    have hz2 : w2.heap.size = w1.heap.size + 1 := by rw [hw2]; simp
    rw [← hw2] at hat hB ⊢
    rw [← hz2]
    obtain ⟨w3, hw3⟩ : ∃ w3, w3 = w2.alloc (.cells #[.pointer none, .slice none 0 0] 115) := ⟨_, rfl⟩
    have hN3 : w3.heap[w2.heap.size]? = some (.cells #[.pointer none, .slice none 0 0] 115 (0, 0)) := by rw [hw3]; show (w2.heap.push _)[w2.heap.size]? = _; exact Array.getElem?_push_size
    have hb3 : Below w2.heap.size w2 w3 := by rw [hw3]; exact below_alloc (Below.refl _ _) _
    have hz3 : w3.heap.size = w2.heap.size + 1 := by rw [hw3]; simp
    rw [← hw3]
    refine (keeper w2.heap.size w3).mono ?_
    rintro e w4 ⟨g, rfl, hg, hge, hb4⟩
    have hkw : Kw s w1.heap.size w2.heap.size g k [] w w4 :=
      ⟨(hat.below hb3).below hb4, ⟨builder_below (builder_fresh (by omega) hN3) hb4, hg, below_next (below_next hB hb3) hb4, by omega, by omega⟩, hle, by omega, by omega⟩
    generalize w2.heap.size = ob at hkw
    generalize w1.heap.size = cb at hkw
    have HKW := Lib.hid hkw
    have HT := Lib.hid (kw_took hkw ⟨#[45]⟩ 1 rfl HK.out (by have := HS.out; omega))
    clear hat hB hle hw2 hz2 hw3 hN3 hb3 hz3 hg hge hb4 hkw hb1
    go_wp2_with fail
    refine HT.out.mono ?_
    rintro e w5 (⟨rfl, hp, hj1, h5⟩ | ⟨rfl, hp, h5⟩)
    · have HP := Lib.hid hp
      have H5 := Lib.hid h5
      have HJ1 := Lib.hid hj1
      clear hp h5 hj1
      go_wp2_with fail
      go_step3
      show J 0 _ _
      refine HJ.out 0 _ _ _ ⟨cb, ob, g, k + 1, [], ⟨H5.out, by omega, HJ1.out, ?_, rfl, by omega⟩, by unfold ComF; (repeat apply Exists.intro); rfl⟩
      rw [pre_1 HP.out, show k + 1 - k = 1 by omega]
      exact com_start _
    · have HP := Lib.hid hp
      have HT2 := Lib.hid (kw_took h5 ⟨#[62]⟩ 1 rfl HK.out (by have := HS.out; omega))
      clear hp h5
      go_wp2_with fail
      refine HT2.out.mono ?_
      rintro e w6 (⟨rfl, hp2, hj1, h6⟩ | ⟨rfl, hp2, h6⟩)
      · have HP2 := Lib.hid hp2
        have H6 := Lib.hid h6
        have HJ1 := Lib.hid hj1
        clear hp2 h6 hj1
        go_wp2_with fail
        go_step3
        show J 1 _ _
        refine HJ.out 1 _ _ _ ⟨cb, ob, g, k + 1, [], ⟨H6.out, by omega, HJ1.out, ?_, rfl, by omega⟩, by unfold ComF; (repeat apply Exists.intro); rfl⟩
        rw [pre_1 HP2.out, show k + 1 - k = 1 by omega]
        rfl
      · have HP2 := Lib.hid hp2
        have H6 := Lib.hid h6
        clear hp2 h6
        go_wp2_with fail
        go_step3
        show J 2 _ _
        refine HJ.out 2 _ _ _ ⟨cb, ob, g, k, [], ⟨H6.out, Nat.le_refl _, HK.out, ?_, rfl, by omega⟩, by unfold ComF; (repeat apply Exists.intro); rfl⟩
        rw [Nat.sub_self, pre_nil]
        exact com_plain HP.out HP2.out
  case pass =>
    intro l hlow rest n a' w' hr hI J R hJ hR
    obtain ⟨cb, ob, g, j, acc, hI, u9, u10, u11, u12, u13, u14, u15, u16, u17, u18, u19, u20, u21, u22, u23, u24, u25, u26, u27, u28, u29, u30, u31, u32, u33, u34, u35, u36, u37, u38, u39, u40, u41, u42, u43, u44, u45, u46, u47, u48, u49, u50, u51, u52, u53, rfl⟩ := hI
    have HLOW := Lib.hid hlow
    have HJ := Lib.hid hJ
    have HR := Lib.hid hR
    have HI := Lib.hid hI
    have hal := com_acc hI HS.out
    have hkw := hI.kw
    have hll := hI.ll
    have hjs := hI.js
    have hcase : l = 0 ∨ l = 1 ∨ l = 2 ∨ l = 3 ∨ l = 4 ∨ l = 5 := by omega
    clear hlow hJ hR hI hll
    rcases hcase with rfl | rfl | rfl | rfl | rfl | rfl
    · injection hr with hr
      injection hr with _ hr
      subst hr
      have HTa := Lib.hid (kw_took hkw ⟨#[45]⟩ 1 rfl hjs (by have := HS.out; omega))
      clear hkw
      go_wp2_with fail
      refine HTa.out.mono ?_
      rintro e wa (⟨rfl, hp, hj1, hkw⟩ | ⟨rfl, hp, hkw⟩)
      · have HPa := Lib.hid hp
        have HKa := Lib.hid hkw
        have HJa := Lib.hid hj1
        clear hp hj1 hkw
        go_wp2_with fail
        go_step3
        show J 3 _ _
        refine HJ.out 3 (10 * (s.size - (j + 1)) + comK 3) _ _ (by have := HI.out.nm; simp only [comK] at this ⊢; have := HI.out.js; have := HJa.out; omega) ⟨cb, ob, g, j + 1, acc, ⟨HKa.out, by have := HI.out.kj; omega, HJa.out, ?_, rfl, by omega⟩, by unfold ComF; (repeat apply Exists.intro); rfl⟩
        have := com_go (p := []) HI.out.eq (show _ = pre [] 1 (comG 3 (s.data.toList.drop (j + 1))) by rw [pre_1 HPa.out]; rw [comG_0, if_neg (by simp [List.isPrefixOf]), comM, if_pos rfl]; rfl) HI.out.kj
        rwa [List.append_nil] at this
      · have HPa := Lib.hid hp
        clear hp
        have HTb := Lib.hid (kw_took hkw ⟨#[62]⟩ 1 rfl hjs (by have := HS.out; omega))
        clear hkw
        go_wp2_with fail
        refine HTb.out.mono ?_
        rintro e wb (⟨rfl, hp, hj1, hkw⟩ | ⟨rfl, hp, hkw⟩)
        · have HPb := Lib.hid hp
          have HKb := Lib.hid hkw
          have HJb := Lib.hid hj1
          clear hp hj1 hkw
          go_wp2_with fail
          go_step3
          show J 1 _ _
          refine HJ.out 1 (10 * (s.size - (j + 1)) + comK 1) _ _ (by have := HI.out.nm; simp only [comK] at this ⊢; have := HI.out.js; have := HJb.out; omega) ⟨cb, ob, g, j + 1, acc, ⟨HKb.out, by have := HI.out.kj; omega, HJb.out, ?_, rfl, by omega⟩, by unfold ComF; (repeat apply Exists.intro); rfl⟩
          have := com_go (p := []) HI.out.eq (show _ = pre [] 1 (comG 1 (s.data.toList.drop (j + 1))) by rw [pre_1 HPb.out]; rw [comG_0, if_pos (by simp [List.isPrefixOf])]; rfl) HI.out.kj
          rwa [List.append_nil] at this
        · have HPb := Lib.hid hp
          clear hp
          have HEc := Lib.hid (kw_ended hkw hjs _ rfl)
          clear hkw
          by_cases hend : j = s.size
          · rw [decide_eq_true hend] at HEc
            have HEND := Lib.hid hend
            clear hend
            go_wp2_with fail
            refine HEc.out.mono ?_
            rintro e wc ⟨rfl, hkw⟩
            have HKc := Lib.hid hkw
            clear hkw
            go_wp2_with fail
            go_step3
            show J 1 _ _
            refine HJ.out 1 (10 * (s.size - (j)) + comK 1) _ _ (by have := HI.out.nm; simp only [comK] at this ⊢; have := HI.out.js; have := HI.out.js; omega) ⟨cb, ob, g, j, acc, ⟨HKc.out, by have := HI.out.kj; omega, HI.out.js, ?_, rfl, by omega⟩, by unfold ComF; (repeat apply Exists.intro); rfl⟩
            have := com_go (p := []) (n := 0) HI.out.eq (show _ = pre [] 0 (comG 1 (s.data.toList.drop j)) by rw [HEND.out, drop_end s _ (Nat.le_refl _)]; first | rfl | (rw [comG_0, if_neg (by simp [List.isPrefixOf])]; rfl)) HI.out.kj
            rwa [List.append_nil] at this
          · rw [decide_eq_false hend] at HEc
            have HEND := Lib.hid hend
            clear hend
            go_wp2_with fail
            refine HEc.out.mono ?_
            rintro e wc ⟨rfl, hkw⟩
            have HKed := Lib.hid (kw_keep hkw HM.out ⟨#[45]⟩ (by decide) hal)
            clear hkw
            go_wp2_with fail
            refine HKed.out.mono ?_
            rintro e wd ⟨rfl, hkw⟩
            have HKd := Lib.hid hkw
            clear hkw
            go_wp2_with fail
            go_step3
            go_step
            go_step
            refine HLOW.out 2 (by decide) _ (10 * (s.size - j) + comK 2) _ _ rfl ?_ J R (fun l' n' a' w' h1 h2 => HJ.out l' n' a' w' (by have := HI.out.nm; simp only [comK] at this h1; have := HI.out.js; omega) h2) HR.out
            refine ⟨cb, ob, g, j, acc ++ [45], ⟨HKd.out, HI.out.kj, HI.out.js, ?_, rfl, by omega⟩, by unfold ComF; (repeat apply Exists.intro); rfl⟩
            refine com_go (n := 0) HI.out.eq ?_ HI.out.kj
            rcases pre_0 HPa.out with h | ⟨x, hx, h⟩
            · exact absurd (drop_full h HI.out.js) HEND.out
            · rw [comG_0, if_neg (by rw [HPb.out]; simp), h, comM_1b _ hx]
              rfl
    · injection hr with hr
      injection hr with _ hr
      subst hr
      have hk1 : At w' cb #[.string s, .int .i64 j] 79 s j := hkw.cur
      have c1 := hk1.cell1
      have HST : Hid (∀ n, Calls Tryz.prog 108 #[.pointer (some ⟨ob, 0, none⟩)] (w'.drewN n) fun e w' => e = .returned (.string (bl acc)) ∧ w'.cell? ⟨cb, 1, none⟩ = some (.int .i64 j) ∧ Below w.heap.size w w') := Lib.hid (by
        intro n
        refine (kw_string (kw_below hkw (_root_.Go.below_drewN (Below.refl _ _) n))).mono ?_
        rintro e w' ⟨rfl, h⟩
        exact ⟨rfl, h.cur.cell1, h.rsv.bel⟩)
      clear hk1 hkw
      go_wp2_with fail
      go_region_with (first | (go_at_call 108; refine (HST.out 1).mono ?_; rintro e w5 ⟨rfl, c2, hb5⟩))
      all_goals
        go_wp2_with fail
        show R _ _
        refine HR.out _ _ ?_
        go_ret2
        have he := HI.out.eq
        have hkj := HI.out.kj
        rw [he]
        exact ⟨ret2_SI' (by simp [pre, comG]) (by simp [pre, comG]; omega), hb5⟩
    · injection hr with hr
      injection hr with _ hr
      subst hr
      have HU := Lib.hid (kw_until hkw 107 (fun args w => enters_of Tryz.func107 (by kernel_rfl) rfl args w) (fun r => decide ((r : Int) = 45)) false hi_dash _ q_dash grows_dash hjs (by have := HS.out; omega))
      clear hkw
      go_wp2_with fail
      refine HU.out.mono ?_
      rintro e wu ⟨N, V, hN, hjN, rfl, hV, hVz, hkw⟩
      have HKe := Lib.hid (kw_keep hkw HM.out V (by have := HS.out; omega) hal)
      have HN := Lib.hid hN
      have HJN := Lib.hid hjN
      have HV := Lib.hid hV
      clear hkw hN hV hVz
      go_wp2_with fail
      refine HKe.out.mono ?_
      rintro e wk ⟨rfl, hkw⟩
      have hrun : comG 2 (s.data.toList.drop j) = pre (nulL V.data.toList) N (comM 0 (s.data.toList.drop (j + N))) := by
        rw [comG_2, HV.out, ← List.drop_drop]
        refine comM_run N _ ?_ (by rw [List.length_drop, size_list]; have := HJN.out; omega)
        rw [HN.out]
        exact runN_ne 45 _
      have HRUN := Lib.hid hrun
      clear hrun
      have HTa := Lib.hid (kw_took hkw ⟨#[45]⟩ 1 rfl hjN (by have := HS.out; omega))
      clear hkw
      go_wp2_with fail
      refine HTa.out.mono ?_
      rintro e wa (⟨rfl, hp, hj1, hkw⟩ | ⟨rfl, hp, hkw⟩)
      · have HPa := Lib.hid hp
        have HKa := Lib.hid hkw
        have HJa := Lib.hid hj1
        clear hp hj1 hkw
        go_wp2_with fail
        go_step3
        show J 4 _ _
        refine HJ.out 4 (10 * (s.size - (j + N + 1)) + comK 4) _ _ (by have := HI.out.nm; simp only [comK] at this ⊢; have := HI.out.js; have := HJa.out; omega) ⟨cb, ob, g, j + N + 1, acc ++ nulL V.data.toList, ⟨HKa.out, by have := HI.out.kj; omega, HJa.out, ?_, rfl, by omega⟩, by unfold ComF; (repeat apply Exists.intro); rfl⟩
        have := com_go (p := nulL V.data.toList) (n := N + 1) HI.out.eq (show _ = pre (nulL V.data.toList) (N + 1) (comG 4 (s.data.toList.drop (j + N + 1))) by rw [HRUN.out, pre_1 HPa.out, comM, if_pos rfl, pre_pre, List.append_nil]; rfl) HI.out.kj
        exact this
      · have HPa := Lib.hid hp
        clear hp
        have HKb := Lib.hid hkw
        clear hkw
        go_wp2_with fail
        go_step3
        show J 1 _ _
        refine HJ.out 1 (10 * (s.size - (j + N)) + comK 1) _ _ (by have := HI.out.nm; simp only [comK] at this ⊢; have := HI.out.js; have := HJN.out; omega) ⟨cb, ob, g, j + N, acc ++ nulL V.data.toList, ⟨HKb.out, by have := HI.out.kj; omega, HJN.out, ?_, rfl, by omega⟩, by unfold ComF; (repeat apply Exists.intro); rfl⟩
        refine com_go HI.out.eq ?_ HI.out.kj
        have hd : s.data.toList.drop (j + N) = [] := by
          have hp := HPa.out
          rw [HN.out, ← List.drop_drop] at hp ⊢
          exact dash_none hp
        rw [HRUN.out, hd]
        rfl
    · injection hr with hr
      injection hr with _ hr
      subst hr
      have HTa := Lib.hid (kw_took hkw ⟨#[62]⟩ 1 rfl hjs (by have := HS.out; omega))
      clear hkw
      go_wp2_with fail
      refine HTa.out.mono ?_
      rintro e wa (⟨rfl, hp, hj1, hkw⟩ | ⟨rfl, hp, hkw⟩)
      · have HPa := Lib.hid hp
        have HKa := Lib.hid hkw
        have HJa := Lib.hid hj1
        clear hp hj1 hkw
        go_wp2_with fail
        go_step3
        show J 1 _ _
        refine HJ.out 1 (10 * (s.size - (j + 1)) + comK 1) _ _ (by have := HI.out.nm; simp only [comK] at this ⊢; have := HI.out.js; have := HJa.out; omega) ⟨cb, ob, g, j + 1, acc, ⟨HKa.out, by have := HI.out.kj; omega, HJa.out, ?_, rfl, by omega⟩, by unfold ComF; (repeat apply Exists.intro); rfl⟩
        have := com_go (p := []) HI.out.eq (show _ = pre [] 1 (comG 1 (s.data.toList.drop (j + 1))) by rw [pre_1 HPa.out]; rw [comG_3, comM, if_pos rfl]; rfl) HI.out.kj
        rwa [List.append_nil] at this
      · have HPa := Lib.hid hp
        clear hp
        have HEc := Lib.hid (kw_ended hkw hjs _ rfl)
        clear hkw
        by_cases hend : j = s.size
        · rw [decide_eq_true hend] at HEc
          have HEND := Lib.hid hend
          clear hend
          go_wp2_with fail
          refine HEc.out.mono ?_
          rintro e wc ⟨rfl, hkw⟩
          have HKc := Lib.hid hkw
          clear hkw
          go_wp2_with fail
          go_step3
          show J 1 _ _
          refine HJ.out 1 (10 * (s.size - (j)) + comK 1) _ _ (by have := HI.out.nm; simp only [comK] at this ⊢; have := HI.out.js; have := HI.out.js; omega) ⟨cb, ob, g, j, acc, ⟨HKc.out, by have := HI.out.kj; omega, HI.out.js, ?_, rfl, by omega⟩, by unfold ComF; (repeat apply Exists.intro); rfl⟩
          have := com_go (p := []) (n := 0) HI.out.eq (show _ = pre [] 0 (comG 1 (s.data.toList.drop j)) by rw [HEND.out, drop_end s _ (Nat.le_refl _)]; first | rfl | (rw [comG_0, if_neg (by simp [List.isPrefixOf])]; rfl)) HI.out.kj
          rwa [List.append_nil] at this
        · rw [decide_eq_false hend] at HEc
          have HEND := Lib.hid hend
          clear hend
          go_wp2_with fail
          refine HEc.out.mono ?_
          rintro e wc ⟨rfl, hkw⟩
          have HTb := Lib.hid (kw_took hkw ⟨#[33]⟩ 1 rfl hjs (by have := HS.out; omega))
          clear hkw
          go_wp2_with fail
          refine HTb.out.mono ?_
          rintro e wb (⟨rfl, hp, hj1, hkw⟩ | ⟨rfl, hp, hkw⟩)
          · have HPb := Lib.hid hp
            have HKb := Lib.hid hkw
            have HJb := Lib.hid hj1
            clear hp hj1 hkw
            go_wp2_with fail
            go_step3
            show J 5 _ _
            refine HJ.out 5 (10 * (s.size - (j + 1)) + comK 5) _ _ (by have := HI.out.nm; simp only [comK] at this ⊢; have := HI.out.js; have := HJb.out; omega) ⟨cb, ob, g, j + 1, acc, ⟨HKb.out, by have := HI.out.kj; omega, HJb.out, ?_, rfl, by omega⟩, by unfold ComF; (repeat apply Exists.intro); rfl⟩
            have := com_go (p := []) HI.out.eq (show _ = pre [] 1 (comG 5 (s.data.toList.drop (j + 1))) by rw [pre_1 HPb.out]; rw [comG_3, comM, if_neg (by decide), if_pos rfl]; rfl) HI.out.kj
            rwa [List.append_nil] at this
          · have HPb := Lib.hid hp
            clear hp
            have HTd := Lib.hid (kw_took hkw ⟨#[45]⟩ 1 rfl hjs (by have := HS.out; omega))
            clear hkw
            go_wp2_with fail
            refine HTd.out.mono ?_
            rintro e wd (⟨rfl, hp, hj1, hkw⟩ | ⟨rfl, hp, hkw⟩)
            · have HPd := Lib.hid hp
              have HKd := Lib.hid hkw
              have HJd := Lib.hid hj1
              clear hp hj1 hkw
              have hkw := HKd.out
              go_wp2_with fail
              have HKee := Lib.hid (kw_keep hkw HM.out ⟨#[45]⟩ (by decide) hal)
              clear hkw
              go_wp2_with fail
              refine HKee.out.mono ?_
              rintro e we ⟨rfl, hkw⟩
              have HKe := Lib.hid hkw
              clear hkw
              go_wp2_with fail
              go_step3
              show J 3 _ _
              refine HJ.out 3 (10 * (s.size - (j + 1)) + comK 3) _ _ (by have := HI.out.nm; simp only [comK] at this ⊢; have := HI.out.js; have := HJd.out; omega) ⟨cb, ob, g, j + 1, acc ++ [45], ⟨HKe.out, by have := HI.out.kj; omega, HJd.out, ?_, rfl, by omega⟩, by unfold ComF; (repeat apply Exists.intro); rfl⟩
              exact com_go HI.out.eq (show _ = pre [45] 1 (comG 3 (s.data.toList.drop (j + 1))) by rw [comG_3, pre_1 HPd.out, comM, if_neg (by decide), if_neg (by decide), if_pos rfl]; rfl) HI.out.kj
            · have HPd := Lib.hid hp
              clear hp
              have HKee := Lib.hid (kw_keep hkw HM.out ⟨#[45, 45]⟩ (by decide) hal)
              clear hkw
              go_wp2_with fail
              refine HKee.out.mono ?_
              rintro e we ⟨rfl, hkw⟩
              have HKe := Lib.hid hkw
              clear hkw
              go_wp2_with fail
              go_step3
              show J 2 _ _
              refine HJ.out 2 (10 * (s.size - (j)) + comK 2) _ _ (by have := HI.out.nm; simp only [comK] at this ⊢; have := HI.out.js; have := HI.out.js; omega) ⟨cb, ob, g, j, acc ++ [45, 45], ⟨HKe.out, by have := HI.out.kj; omega, HI.out.js, ?_, rfl, by omega⟩, by unfold ComF; (repeat apply Exists.intro); rfl⟩
              refine com_go (n := 0) HI.out.eq ?_ HI.out.kj
              rcases pre_0 HPa.out with h | ⟨x, hx, h⟩
              · exact absurd (drop_full h HI.out.js) HEND.out
              · rcases pre_0 HPb.out with h2 | ⟨x2, hx2, h2⟩
                · rw [h] at h2; cases h2
                · rcases pre_0 HPd.out with h3 | ⟨x3, hx3, h3⟩
                  · rw [h] at h3; cases h3
                  · rw [h] at h2 h3
                    injection h2 with e2 _
                    injection h3 with e3 _
                    subst e2 e3
                    rw [comG_3, h, comM_2b _ hx hx2 hx3]
                    rfl
    · injection hr with hr
      injection hr with _ hr
      subst hr
      have HTa := Lib.hid (kw_took hkw ⟨#[45]⟩ 1 rfl hjs (by have := HS.out; omega))
      clear hkw
      go_wp2_with fail
      refine HTa.out.mono ?_
      rintro e wa (⟨rfl, hp, hj1, hkw⟩ | ⟨rfl, hp, hkw⟩)
      · have HPa := Lib.hid hp
        have HKa := Lib.hid hkw
        have HJa := Lib.hid hj1
        clear hp hj1 hkw
        go_wp2_with fail
        go_step3
        show J 3 _ _
        refine HJ.out 3 (10 * (s.size - (j + 1)) + comK 3) _ _ (by have := HI.out.nm; simp only [comK] at this ⊢; have := HI.out.js; have := HJa.out; omega) ⟨cb, ob, g, j + 1, acc, ⟨HKa.out, by have := HI.out.kj; omega, HJa.out, ?_, rfl, by omega⟩, by unfold ComF; (repeat apply Exists.intro); rfl⟩
        have := com_go (p := []) HI.out.eq (show _ = pre [] 1 (comG 3 (s.data.toList.drop (j + 1))) by rw [pre_1 HPa.out]; rw [comG_4, comM, if_pos rfl]; rfl) HI.out.kj
        rwa [List.append_nil] at this
      · have HPa := Lib.hid hp
        clear hp
        have HEc := Lib.hid (kw_ended hkw hjs _ rfl)
        clear hkw
        by_cases hend : j = s.size
        · rw [decide_eq_true hend] at HEc
          have HEND := Lib.hid hend
          clear hend
          go_wp2_with fail
          refine HEc.out.mono ?_
          rintro e wc ⟨rfl, hkw⟩
          have HKc := Lib.hid hkw
          clear hkw
          go_wp2_with fail
          go_step3
          show J 1 _ _
          refine HJ.out 1 (10 * (s.size - (j)) + comK 1) _ _ (by have := HI.out.nm; simp only [comK] at this ⊢; have := HI.out.js; have := HI.out.js; omega) ⟨cb, ob, g, j, acc, ⟨HKc.out, by have := HI.out.kj; omega, HI.out.js, ?_, rfl, by omega⟩, by unfold ComF; (repeat apply Exists.intro); rfl⟩
          have := com_go (p := []) (n := 0) HI.out.eq (show _ = pre [] 0 (comG 1 (s.data.toList.drop j)) by rw [HEND.out, drop_end s _ (Nat.le_refl _)]; first | rfl | (rw [comG_0, if_neg (by simp [List.isPrefixOf])]; rfl)) HI.out.kj
          rwa [List.append_nil] at this
        · rw [decide_eq_false hend] at HEc
          have HEND := Lib.hid hend
          clear hend
          go_wp2_with fail
          refine HEc.out.mono ?_
          rintro e wc ⟨rfl, hkw⟩
          have HKee := Lib.hid (kw_keep hkw HM.out ⟨#[45]⟩ (by decide) hal)
          clear hkw
          go_wp2_with fail
          refine HKee.out.mono ?_
          rintro e we ⟨rfl, hkw⟩
          have HKe := Lib.hid hkw
          clear hkw
          go_wp2_with fail
          go_step3
          show J 2 _ _
          refine HJ.out 2 (10 * (s.size - (j)) + comK 2) _ _ (by have := HI.out.nm; simp only [comK] at this ⊢; have := HI.out.js; have := HI.out.js; omega) ⟨cb, ob, g, j, acc ++ [45], ⟨HKe.out, by have := HI.out.kj; omega, HI.out.js, ?_, rfl, by omega⟩, by unfold ComF; (repeat apply Exists.intro); rfl⟩
          refine com_go (n := 0) HI.out.eq ?_ HI.out.kj
          rcases pre_0 HPa.out with h | ⟨x, hx, h⟩
          · exact absurd (drop_full h HI.out.js) HEND.out
          · rw [comG_4, h, comM_1b _ hx]
            rfl
    · injection hr with hr
      injection hr with _ hr
      subst hr
      have HTa := Lib.hid (kw_took hkw ⟨#[62]⟩ 1 rfl hjs (by have := HS.out; omega))
      clear hkw
      go_wp2_with fail
      refine HTa.out.mono ?_
      rintro e wa (⟨rfl, hp, hj1, hkw⟩ | ⟨rfl, hp, hkw⟩)
      · have HPa := Lib.hid hp
        have HKa := Lib.hid hkw
        have HJa := Lib.hid hj1
        clear hp hj1 hkw
        go_wp2_with fail
        go_step3
        show J 1 _ _
        refine HJ.out 1 (10 * (s.size - (j + 1)) + comK 1) _ _ (by have := HI.out.nm; simp only [comK] at this ⊢; have := HI.out.js; have := HJa.out; omega) ⟨cb, ob, g, j + 1, acc, ⟨HKa.out, by have := HI.out.kj; omega, HJa.out, ?_, rfl, by omega⟩, by unfold ComF; (repeat apply Exists.intro); rfl⟩
        have := com_go (p := []) HI.out.eq (show _ = pre [] 1 (comG 1 (s.data.toList.drop (j + 1))) by rw [pre_1 HPa.out]; rw [comG_5, comM_3, if_pos rfl]; rfl) HI.out.kj
        rwa [List.append_nil] at this
      · have HPa := Lib.hid hp
        clear hp
        have HEc := Lib.hid (kw_ended hkw hjs _ rfl)
        clear hkw
        by_cases hend : j = s.size
        · rw [decide_eq_true hend] at HEc
          have HEND := Lib.hid hend
          clear hend
          go_wp2_with fail
          refine HEc.out.mono ?_
          rintro e wc ⟨rfl, hkw⟩
          have HKc := Lib.hid hkw
          clear hkw
          go_wp2_with fail
          go_step3
          show J 1 _ _
          refine HJ.out 1 (10 * (s.size - (j)) + comK 1) _ _ (by have := HI.out.nm; simp only [comK] at this ⊢; have := HI.out.js; have := HI.out.js; omega) ⟨cb, ob, g, j, acc, ⟨HKc.out, by have := HI.out.kj; omega, HI.out.js, ?_, rfl, by omega⟩, by unfold ComF; (repeat apply Exists.intro); rfl⟩
          have := com_go (p := []) (n := 0) HI.out.eq (show _ = pre [] 0 (comG 1 (s.data.toList.drop j)) by rw [HEND.out, drop_end s _ (Nat.le_refl _)]; first | rfl | (rw [comG_0, if_neg (by simp [List.isPrefixOf])]; rfl)) HI.out.kj
          rwa [List.append_nil] at this
        · rw [decide_eq_false hend] at HEc
          have HEND := Lib.hid hend
          clear hend
          go_wp2_with fail
          refine HEc.out.mono ?_
          rintro e wc ⟨rfl, hkw⟩
          have HKee := Lib.hid (kw_keep hkw HM.out ⟨#[45, 45, 33]⟩ (by decide) hal)
          clear hkw
          go_wp2_with fail
          refine HKee.out.mono ?_
          rintro e we ⟨rfl, hkw⟩
          have HKe := Lib.hid hkw
          clear hkw
          go_wp2_with fail
          go_step3
          show J 2 _ _
          refine HJ.out 2 (10 * (s.size - (j)) + comK 2) _ _ (by have := HI.out.nm; simp only [comK] at this ⊢; have := HI.out.js; have := HI.out.js; omega) ⟨cb, ob, g, j, acc ++ [45, 45, 33], ⟨HKe.out, by have := HI.out.kj; omega, HI.out.js, ?_, rfl, by omega⟩, by unfold ComF; (repeat apply Exists.intro); rfl⟩
          refine com_go (n := 0) HI.out.eq ?_ HI.out.kj
          rcases pre_0 HPa.out with h | ⟨x, hx, h⟩
          · exact absurd (drop_full h HI.out.js) HEND.out
          · rw [comG_5, h, comM_3b _ hx]
            rfl
end Go.Proofs.YtnfccckodgknjaaGreatDoor

namespace Go.Proofs.YtnfccckodgknjaaGreatDoor
open Go.RowKit Go.Shelf Go.Lib
set_option maxHeartbeats 4000000
set_option maxRecDepth 100000

theorem pre_0' {s : ByteArray} {j : Nat} {c : UInt8} (h : [c].isPrefixOf (s.data.toList.drop j) = false) : (s.data.toList.drop j).head? ≠ some c := by
  intro e
  rw [(pre_head _ _).2 e] at h
  cases h
/-- Behind the word: what script data goes on with. -/
theorem scW_took {last : List UInt8} {m' : Nat} {s : ByteArray} {j n j' : Nat} {r : Bool} (hn : n = wordN (s.data.toList.drop j))
    (h : (seesB (fun r => enB r) (s.data.toList.drop (j + n)) = false ∧ r = false ∧ j' = j + n) ∨ (seesB (fun r => enB r) (s.data.toList.drop (j + n)) = true ∧ r = (lowL ((s.data.toList.drop j).take n) == sScript) ∧ j' = j + n + 1)) :
    scW last m' (s.data.toList.drop j) = scL last (if r then 3 - m' else m') 0 (s.data.toList.drop j') := by
  rw [hn] at h
  rcases h with ⟨h1, rfl, rfl⟩ | ⟨h1, hr, rfl⟩
  · rw [if_neg Bool.false_ne_true, ← List.drop_drop]
    rw [← List.drop_drop] at h1
    cases hd : (s.data.toList.drop j).drop (wordN (s.data.toList.drop j)) with
    | nil => rw [scW_nil _ _ _ hd, scL_nil]
    | cons c x =>
      rw [hd] at h1
      have : enU c = false := by rw [← q_en]; exact h1
      rw [scW_no _ _ _ _ _ hd this]
  · rw [show j + wordN (s.data.toList.drop j) + 1 = j + (wordN (s.data.toList.drop j) + 1) by omega, ← List.drop_drop (i := wordN (s.data.toList.drop j) + 1)]
    rw [← List.drop_drop] at h1
    cases hd : (s.data.toList.drop j).drop (wordN (s.data.toList.drop j)) with
    | nil => rw [hd] at h1; cases h1
    | cons c x =>
      rw [hd] at h1
      have hc : enU c = true := by rw [← q_en]; exact h1
      have hx : (s.data.toList.drop j).drop (wordN (s.data.toList.drop j) + 1) = x := by
        rw [← List.drop_drop, hd]; rfl
      rw [scW_yes _ _ _ _ _ hd hc, hx]
      congr 1
      rw [hr]
      by_cases e : lowL ((s.data.toList.drop j).take (wordN (s.data.toList.drop j))) = sScript
      · rw [if_pos e, e, beq_self_eq_true, if_pos rfl]
      · rw [if_neg e, beq_eq_false_iff_ne.2 e, if_neg Bool.false_ne_true]

theorem dbl_step {last : List UInt8} {s : ByteArray} {j : Nat} (h1 : [45].isPrefixOf (s.data.toList.drop j) = false) (h2 : [60, 47].isPrefixOf (s.data.toList.drop j) = false) (hj : j + 1 ≤ s.size) :
    scL last 2 0 (s.data.toList.drop j) = scL last 2 0 (s.data.toList.drop (j + 1)) := by
  rw [drop_byte s j hj] at h1 h2 ⊢
  refine scL_2b _ _ _ ?_ ?_
  · intro e; rw [e] at h1; simp [List.isPrefixOf] at h1
  · rintro ⟨e, e2⟩
    rw [e] at h2
    cases ht : s.data.toList.drop (j + 1) with
    | nil => rw [ht] at e2; simp at e2
    | cons y t =>
      rw [ht] at h2 e2
      simp at e2
      subst e2
      simp [List.isPrefixOf] at h2

/-- What is still read from each label on: doubleDash 0, doubleEnd 1, doubleEscaped 2, doubleDashDash 3. -/
def dblG (last : List UInt8) : Nat → List UInt8 → List UInt8
  | 0, u => scL last 2 1 u
  | 1, u => scW last 2 u
  | 2, u => scL last 2 0 u
  | _, u => scL last 2 2 u
def dblK : Nat → Nat
  | 2 => 1
  | _ => 2
structure DblI (s : ByteArray) (b k : Nat) (T : TypeId) (last : List UInt8) (l n : Nat) (w wr : World) (j : Nat) : Prop where
  cur : At wr b #[.string s, .int .i64 j] T s j
  but : But b w wr
  js : j ≤ s.size
  kj : k ≤ j
  eq : scL last 2 0 (s.data.toList.drop k) = dblG last l (s.data.toList.drop j)
  nm : n = 10 * (s.size - j) + dblK l
  ll : l ≤ 3
def DblF (b : Nat) (a' : Act) : Prop := ∃ u3 u4 u5 u6 u7 u8 u9 u10 u11 u12 u13 u14 u15 u16 u17 u18 u19 u20 u21 u22 u23 : Value, a' = { tmps := #[.pointer (some ⟨b, 0, none⟩), undef, .bool false, u3, u4, u5, u6, u7, u8, u9, u10, u11, u12, u13, u14, u15, u16, u17, u18, u19, u20, u21, u22, u23], defers := [] }

/-- What tookDouble answers. -/
def DblP (s : ByteArray) (b k : Nat) (T : TypeId) (last : List UInt8) (w : World) (e : Ending) (w' : World) : Prop :=
  ∃ (r : Bool) (j' : Nat), e = .returned (.bool r) ∧ k ≤ j' ∧ j' ≤ s.size ∧ scL last 2 0 (s.data.toList.drop k) = scL last (if r then 1 else 0) 0 (s.data.toList.drop j') ∧ At w' b #[.string s, .int .i64 j'] T s j' ∧ But b w w'

theorem tookDoubleC (last : List UInt8) (b : Nat) (T : TypeId) (s : ByteArray) (k : Nat) (hk : k ≤ s.size) (hs : s.size ≤ 10000000) (w : World) (h : At w b #[.string s, .int .i64 k] T s k) :
    Calls Tryz.prog 119 #[.pointer (some ⟨b, 0, none⟩)] w (DblP s b k T last w) := by
  have HS := Lib.hid hs
  have HK := Lib.hid hk
  have H0 := Lib.hid h
  clear hs hk h
  go_enter Tryz.func119, Tryz.ntmps119
  go_wp2_with fail
  refine wp_scope_gotos_k (fun l n a' w' => ∃ j, DblI s b k T last l n w w' j ∧ DblF b a') (fun _ => 0) ?hf ?first ?pass
  case hf =>
    rintro l n a' w' ⟨j, hI, _⟩
    have hl := hI.ll
    have hcase : l = 0 ∨ l = 1 ∨ l = 2 ∨ l = 3 := by omega
    rcases hcase with rfl | rfl | rfl | rfl <;> exact ⟨_, rfl⟩
  case first =>
    intro hall J R hJ hR
    have HJ := Lib.hid hJ
    have HALL := Lib.hid hall
    have HR := Lib.hid hR
    clear hJ hall hR
    go_wp2_with fail
    go_step3
    go_step
    go_step
    refine HALL.out 2 _ (10 * (s.size - k) + dblK 2) _ _ rfl ?_ J R (fun l' n' a' w' _ h2 => HJ.out l' n' a' w' h2) HR.out
    exact ⟨k, ⟨H0.out, But.refl _ _, HK.out, Nat.le_refl _, rfl, rfl, by omega⟩, by unfold DblF; (repeat apply Exists.intro); rfl⟩
  case pass =>
    intro l _ rest n a' w' hr hI J R hJ hR
    obtain ⟨j, hI, u3, u4, u5, u6, u7, u8, u9, u10, u11, u12, u13, u14, u15, u16, u17, u18, u19, u20, u21, u22, u23, rfl⟩ := hI
    have HJ := Lib.hid hJ
    have HR := Lib.hid hR
    have HI := Lib.hid hI
    have hcur := hI.cur
    have hll := hI.ll
    have hjs := hI.js
    have hbut := hI.but
    have hcase : l = 0 ∨ l = 1 ∨ l = 2 ∨ l = 3 := by omega
    clear hJ hR hI hll
    rcases hcase with rfl | rfl | rfl | rfl
    · injection hr with hr
      injection hr with _ hr
      subst hr
      have HTa := Lib.hid (tookE b _ T s ⟨#[45]⟩ j 1 rfl hjs (by have := HS.out; omega) _ hcur)
      clear hcur
      go_wp2_with fail
      refine HTa.out.mono ?_
      rintro e wa (⟨rfl, hp, hj1, hcur, hB⟩ | ⟨rfl, hp, hcur, hB⟩)
      · replace hbut := hbut.trans hB
        have HPa := Lib.hid hp
        have HJa := Lib.hid hj1
        have HKa := Lib.hid hcur
        have HKab := Lib.hid hbut
        clear hp hj1 hcur hbut hB
        go_wp2_with fail
        go_step3
        show J 3 _ _
        refine HJ.out 3 (10 * (s.size - (j + 1)) + dblK 3) _ _ (by have := HI.out.nm; simp only [dblK] at this ⊢; have := HI.out.js; have := HJa.out; omega) ⟨j + 1, ⟨HKa.out, HKab.out, HJa.out, by have := HI.out.kj; omega, ?_, rfl, by omega⟩, by unfold DblF; (repeat apply Exists.intro); rfl⟩
        exact HI.out.eq.trans (by show scL last 2 1 _ = scL last 2 2 _; rw [pre_1 HPa.out, scL_dash _ _ _ _ (by decide)]; rfl)
      · replace hbut := hbut.trans hB
        have HPa := Lib.hid hp
        clear hp hB
        have HKz := Lib.hid hcur
        have HKzb := Lib.hid hbut
        clear hcur hbut
        go_wp2_with fail
        go_step3
        show J 2 _ _
        refine HJ.out 2 (10 * (s.size - (j)) + dblK 2) _ _ (by have := HI.out.nm; simp only [dblK] at this ⊢; have := HI.out.js; have := HI.out.js; omega) ⟨j, ⟨HKz.out, HKzb.out, HI.out.js, by have := HI.out.kj; omega, ?_, rfl, by omega⟩, by unfold DblF; (repeat apply Exists.intro); rfl⟩
        exact HI.out.eq.trans (scL_d _ _ _ _ (pre_0' HPa.out) (.inr (by decide)))
    · injection hr with hr
      injection hr with _ hr
      subst hr
      have HTS := Lib.hid (tookScriptC b T s j hjs HS.out _ hcur)
      clear hcur
      go_wp2_with fail
      refine HTS.out.mono ?_
      rintro e w1 ⟨r, n', j', rfl, hn, hj's, hjj, hor, hcur, hB⟩
      replace hbut := hbut.trans hB
      have HW := Lib.hid (scW_took (last := last) (m' := 2) hn hor)
      have HJ' := Lib.hid hj's
      have HJJ := Lib.hid hjj
      have HKz := Lib.hid hcur
      have HKzb := Lib.hid hbut
      clear hn hj's hor hcur hbut hB hjj
      cases r
      · go_wp2_with fail
        go_step3
        show J 2 _ _
        refine HJ.out 2 (10 * (s.size - j') + dblK 2) _ _ (by have := HI.out.nm; simp only [dblK] at this ⊢; have := HI.out.js; have := HJJ.out; omega) ⟨j', ⟨HKz.out, HKzb.out, HJ'.out, by have := HI.out.kj; have := HJJ.out; omega, ?_, rfl, by omega⟩, by unfold DblF; (repeat apply Exists.intro); rfl⟩
        exact HI.out.eq.trans HW.out
      · go_wp2_with fail
        show R _ _
        refine HR.out _ _ ?_
        go_ret
        exact ⟨true, j', rfl, by have := HI.out.kj; have := HJJ.out; omega, HJ'.out, HI.out.eq.trans HW.out, HKz.out, HKzb.out⟩
    · injection hr with hr
      injection hr with _ hr
      subst hr
      have HEe := Lib.hid (endedE b _ T s j hjs _ rfl _ hcur)
      clear hcur
      by_cases hend : j = s.size
      · rw [decide_eq_true hend] at HEe
        have HEND := Lib.hid hend
        clear hend
        go_wp2_with fail
        refine HEe.out.mono ?_
        rintro e we ⟨rfl, hb, hcur⟩
        replace hbut := hbut.trans (But.of_below hb)
        have HKe := Lib.hid hcur
        have HKeb := Lib.hid hbut
        clear hcur hbut hb
        go_wp2_with fail
        show R _ _
        refine HR.out _ _ ?_
        go_ret
        refine ⟨false, j, rfl, by have := HI.out.kj; omega, HI.out.js, ?_, HKe.out, HKeb.out⟩
        exact HI.out.eq.trans (by show scL last 2 0 _ = scL last 0 0 _; rw [HEND.out, drop_end s _ (Nat.le_refl _), scL_nil, scL_nil])
      · rw [decide_eq_false hend] at HEe
        have HEND := Lib.hid hend
        clear hend
        go_wp2_with fail
        refine HEe.out.mono ?_
        rintro e we ⟨rfl, hb, hcur⟩
        replace hbut := hbut.trans (But.of_below hb)
        clear hb
        have HTa := Lib.hid (tookE b _ T s ⟨#[45]⟩ j 1 rfl hjs (by have := HS.out; omega) _ hcur)
        clear hcur
        go_wp2_with fail
        refine HTa.out.mono ?_
        rintro e wa (⟨rfl, hp, hj1, hcur, hB⟩ | ⟨rfl, hp, hcur, hB⟩)
        · replace hbut := hbut.trans hB
          have HPa := Lib.hid hp
          have HJa := Lib.hid hj1
          have HKa := Lib.hid hcur
          have HKab := Lib.hid hbut
          clear hp hj1 hcur hbut hB
          go_wp2_with fail
          go_step3
          show J 0 _ _
          refine HJ.out 0 (10 * (s.size - (j + 1)) + dblK 0) _ _ (by have := HI.out.nm; simp only [dblK] at this ⊢; have := HI.out.js; have := HJa.out; omega) ⟨j + 1, ⟨HKa.out, HKab.out, HJa.out, by have := HI.out.kj; omega, ?_, rfl, by omega⟩, by unfold DblF; (repeat apply Exists.intro); rfl⟩
          exact HI.out.eq.trans (by show scL last 2 0 _ = scL last 2 1 _; rw [pre_1 HPa.out, scL_dash _ _ _ _ (by decide)]; rfl)
        · replace hbut := hbut.trans hB
          have HPa := Lib.hid hp
          clear hp hB
          have HTb := Lib.hid (tookE b _ T s ⟨#[60, 47]⟩ j 2 rfl hjs (by have := HS.out; omega) _ hcur)
          clear hcur
          go_wp2_with fail
          refine HTb.out.mono ?_
          rintro e wb (⟨rfl, hp, hj1, hcur, hB⟩ | ⟨rfl, hp, hcur, hB⟩)
          · replace hbut := hbut.trans hB
            have HPb := Lib.hid hp
            have HJb := Lib.hid hj1
            have HKb := Lib.hid hcur
            have HKbb := Lib.hid hbut
            clear hp hj1 hcur hbut hB
            go_wp2_with fail
            go_step3
            show J 1 _ _
            refine HJ.out 1 (10 * (s.size - (j + 2)) + dblK 1) _ _ (by have := HI.out.nm; simp only [dblK] at this ⊢; have := HI.out.js; have := HJb.out; omega) ⟨j + 2, ⟨HKb.out, HKbb.out, HJb.out, by have := HI.out.kj; omega, ?_, rfl, by omega⟩, by unfold DblF; (repeat apply Exists.intro); rfl⟩
            exact HI.out.eq.trans (by show scL last 2 0 _ = scW last 2 _; rw [pre_two HPb.out, scL_word2])
          · replace hbut := hbut.trans hB
            have HPb := Lib.hid hp
            clear hp hB
            have hj1 : j + 1 ≤ s.size := by have := HEND.out; omega
            have HJt := Lib.hid hj1
            have HTkt := Lib.hid (takeE b _ T s j 1 hj1 (by have := HS.out; omega) _ hcur)
            clear hcur hj1
            go_wp2_with fail
            refine HTkt.out.mono ?_
            rintro e wt ⟨Vt, rfl, _, _, hcur, hB⟩
            replace hbut := hbut.trans hB
            have HKt := Lib.hid hcur
            have HKtb := Lib.hid hbut
            clear hcur hbut hB
            go_wp2_with fail
            go_step3
            show J 2 _ _
            refine HJ.out 2 (10 * (s.size - (j + 1)) + dblK 2) _ _ (by have := HI.out.nm; simp only [dblK] at this ⊢; have := HI.out.js; have := HJt.out; omega) ⟨j + 1, ⟨HKt.out, HKtb.out, HJt.out, by have := HI.out.kj; omega, ?_, rfl, by omega⟩, by unfold DblF; (repeat apply Exists.intro); rfl⟩
            exact HI.out.eq.trans (dbl_step HPa.out HPb.out HJt.out)
    · injection hr with hr
      injection hr with _ hr
      subst hr
      have HTa := Lib.hid (tookE b _ T s ⟨#[45]⟩ j 1 rfl hjs (by have := HS.out; omega) _ hcur)
      clear hcur
      go_wp2_with fail
      refine HTa.out.mono ?_
      rintro e wa (⟨rfl, hp, hj1, hcur, hB⟩ | ⟨rfl, hp, hcur, hB⟩)
      · replace hbut := hbut.trans hB
        have HPa := Lib.hid hp
        have HJa := Lib.hid hj1
        have HKa := Lib.hid hcur
        have HKab := Lib.hid hbut
        clear hp hj1 hcur hbut hB
        go_wp2_with fail
        go_step3
        show J 3 _ _
        refine HJ.out 3 (10 * (s.size - (j + 1)) + dblK 3) _ _ (by have := HI.out.nm; simp only [dblK] at this ⊢; have := HI.out.js; have := HJa.out; omega) ⟨j + 1, ⟨HKa.out, HKab.out, HJa.out, by have := HI.out.kj; omega, ?_, rfl, by omega⟩, by unfold DblF; (repeat apply Exists.intro); rfl⟩
        exact HI.out.eq.trans (by show scL last 2 2 _ = scL last 2 2 _; rw [pre_1 HPa.out, scL_dash _ _ _ _ (by decide)]; rfl)
      · replace hbut := hbut.trans hB
        have HPa := Lib.hid hp
        clear hp hB
        have HTb := Lib.hid (tookE b _ T s ⟨#[62]⟩ j 1 rfl hjs (by have := HS.out; omega) _ hcur)
        clear hcur
        go_wp2_with fail
        refine HTb.out.mono ?_
        rintro e wb (⟨rfl, hp, hj1, hcur, hB⟩ | ⟨rfl, hp, hcur, hB⟩)
        · replace hbut := hbut.trans hB
          have HPb := Lib.hid hp
          have HJb := Lib.hid hj1
          have HKb := Lib.hid hcur
          have HKbb := Lib.hid hbut
          clear hp hj1 hcur hbut hB
          go_wp2_with fail
          show R _ _
          refine HR.out _ _ ?_
          go_ret
          refine ⟨false, j + 1, rfl, by have := HI.out.kj; omega, HJb.out, ?_, HKb.out, HKbb.out⟩
          exact HI.out.eq.trans (by show scL last 2 2 _ = scL last 0 0 _; rw [pre_1 HPb.out, scL_gt _ _ _ (by decide)])
        · replace hbut := hbut.trans hB
          have HPb := Lib.hid hp
          clear hp hB
          have HKz := Lib.hid hcur
          have HKzb := Lib.hid hbut
          clear hcur hbut
          go_wp2_with fail
          go_step3
          show J 2 _ _
          refine HJ.out 2 (10 * (s.size - (j)) + dblK 2) _ _ (by have := HI.out.nm; simp only [dblK] at this ⊢; have := HI.out.js; have := HI.out.js; omega) ⟨j, ⟨HKz.out, HKzb.out, HI.out.js, by have := HI.out.kj; omega, ?_, rfl, by omega⟩, by unfold DblF; (repeat apply Exists.intro); rfl⟩
          exact HI.out.eq.trans (scL_d _ _ _ _ (pre_0' HPa.out) (.inl (pre_0' HPb.out)))
end Go.Proofs.YtnfccckodgknjaaGreatDoor

namespace Go.Proofs.YtnfccckodgknjaaGreatDoor
open Go.RowKit Go.Shelf Go.Lib
set_option maxHeartbeats 4000000
set_option maxRecDepth 100000

/-- What is still read from each label on: data 0, stop 1, escapeStart 2, escapeStartDash 3, escapedDashDash 4, escapedDash 5, doubleStart 6, escaped 7. -/
def scG (last : List UInt8) : Nat → List UInt8 → List UInt8
  | 0, u => scL last 0 0 u
  | 1, u => u
  | 2, u => scL last 0 0 (60 :: 33 :: u)
  | 3, u => scL last 0 0 (60 :: 33 :: 45 :: u)
  | 4, u => scL last 1 2 u
  | 5, u => scL last 1 1 u
  | 6, u => scW last 1 u
  | _, u => scL last 1 0 u
def scK : Nat → Nat
  | 1 => 0
  | 0 => 1
  | 7 => 1
  | _ => 2
structure ScI (s : ByteArray) (b k : Nat) (last : List UInt8) (l n : Nat) (w wr : World) (j : Nat) : Prop where
  cur : At wr b #[.string s, .int .i64 j] 79 s j
  bel : Below w.heap.size w wr
  bw : w.heap.size ≤ b
  js : j ≤ s.size
  kj : k ≤ j
  eq : scL last 0 0 (s.data.toList.drop k) = scG last l (s.data.toList.drop j)
  nm : n = 10 * (s.size - j) + scK l
  ll : l ≤ 7
def ScF (s : ByteArray) (a : Int) (LB : ByteArray) (k b : Nat) (a' : Act) : Prop := ∃ u10 u11 u12 u13 u14 u15 u16 u17 u18 u19 u20 u21 u22 u23 u24 u25 u26 u27 u28 u29 u30 u31 u32 u33 u34 u35 u36 u37 u38 u39 u40 u41 u42 u43 u44 u45 u46 u47 u48 u49 : Value, a' = { tmps := #[.string s, .int .i64 a, .string LB, undef, undef, undef, .string ⟨#[]⟩, .int .i64 0, .pointer (some ⟨b, 0, none⟩), .int .i64 k, u10, u11, u12, u13, u14, u15, u16, u17, u18, u19, u20, u21, u22, u23, u24, u25, u26, u27, u28, u29, u30, u31, u32, u33, u34, u35, u36, u37, u38, u39, u40, u41, u42, u43, u44, u45, u46, u47, u48, u49], defers := [] }

theorem sc_data {last : List UInt8} {s : ByteArray} {j N : Nat} (hN : N = runN (fun b => b == 60) (s.data.toList.drop j)) : scL last 0 0 (s.data.toList.drop j) = scL last 0 0 (s.data.toList.drop (j + N)) := by
  rw [← List.drop_drop]
  refine scL_0run last N _ ?_
  rw [hN]
  exact runN_ne 60 _
theorem sc_data_step {last : List UInt8} {s : ByteArray} {j : Nat} (hj : j < s.size) (hc : closesL last (s.data.toList.drop j) = false) (h2 : [60, 33].isPrefixOf (s.data.toList.drop j) = false) : scL last 0 0 (s.data.toList.drop j) = scL last 0 0 (s.data.toList.drop (j + 1)) := by
  rw [drop_byte s j hj] at hc h2 ⊢
  refine scL_0 _ _ _ _ hc ?_
  rw [Bool.eq_false_iff]
  intro e
  rw [Bool.eq_false_iff] at h2
  apply h2
  rw [List.isPrefixOf_iff_prefix] at e ⊢
  exact List.IsPrefix.trans ⟨[45, 45], rfl⟩ e
theorem sc_esc_step {last : List UInt8} {s : ByteArray} {j : Nat} (hj : j < s.size) (hc : closesL last (s.data.toList.drop j) = false) (h2 : [45].isPrefixOf (s.data.toList.drop j) = false)
    (h3 : [60].isPrefixOf (s.data.toList.drop j) = false ∨ seesB (fun r => letB r) (s.data.toList.drop (j + 1)) = false) : scL last 1 0 (s.data.toList.drop j) = scL last 1 0 (s.data.toList.drop (j + 1)) := by
  rw [drop_byte s j hj] at hc h2 h3 ⊢
  refine scL_1b _ _ _ hc ?_ ?_
  · intro e; rw [e] at h2; simp [List.isPrefixOf] at h2
  · rintro ⟨e, e2⟩
    rw [e] at h3
    rcases h3 with h3 | h3
    · simp [List.isPrefixOf] at h3
    · cases ht : s.data.toList.drop (j + 1) with
      | nil => rw [ht] at e2; simp [wordN, runN_nil] at e2
      | cons y t =>
        rw [ht] at h3 e2
        simp only [seesB] at h3
        rw [wordN, runN_yes _ (by show (!leU y) = true; unfold leU; rw [h3]; rfl)] at e2
        omega
theorem word_pos {u : List UInt8} (h : seesB (fun r => letB r) u = true) : 0 < wordN u := by
  cases u with
  | nil => cases h
  | cons y t =>
    simp only [seesB] at h
    rw [wordN, runN_no _ (by show (!leU y) = false; unfold leU; rw [h]; rfl)]
    omega

theorem sc_stop {last : List UInt8} {m' d : Nat} {s : ByteArray} {j : Nat} (hm : m' < 2) (h : (decide (j = s.size) || closesL last (s.data.toList.drop j)) = true) : scL last m' d (s.data.toList.drop j) = s.data.toList.drop j := by
  rw [Bool.or_eq_true, decide_eq_true_eq] at h
  rcases h with h | h
  · rw [h, drop_end s _ (Nat.le_refl _), scL_nil]
  · exact scL_stop last m' d _ hm h
theorem sc_bang1 {last u : List UInt8} (h : u.head? ≠ some 45) : scL last 0 0 (60 :: 33 :: 45 :: u) = scL last 0 0 u := by
  rw [scL_bang, scL_0b _ _ _ (by decide)]
  intro e
  cases u with
  | nil => simp [List.isPrefixOf] at e
  | cons y t =>
    simp [List.isPrefixOf] at e
    exact h (by simp [e.symm])
theorem sc_word {last : List UInt8} {s : ByteArray} {j : Nat} (hc : closesL last (s.data.toList.drop j) = false) (h : [60].isPrefixOf (s.data.toList.drop j) = true) (hl : seesB (fun r => letB r) (s.data.toList.drop (j + 1)) = true) : scL last 1 0 (s.data.toList.drop j) = scW last 1 (s.data.toList.drop (j + 1)) := by
  rw [pre_1 h] at hc ⊢
  exact scL_word last 0 _ hc (word_pos hl)

/-- What Script answers. -/
def ScP (s : ByteArray) (k : Nat) (last : List UInt8) (w : World) (e : Ending) (w' : World) : Prop :=
  ∃ N, scL last 0 0 (s.data.toList.drop k) = (s.data.toList.drop k).drop N ∧ k + N ≤ s.size ∧ e = .returned (.tuple #[.string (bl (nulL ((s.data.toList.drop k).take N))), .int .i64 ((k + N : Nat) : Int)]) ∧ Below w.heap.size w w'

theorem scriptC (s : ByteArray) (a : Int) (LB : ByteArray) (m : Int) (hs : s.size ≤ 1000000) (w : World) (hm : w.cell? ⟨1, 0, none⟩ = some (.int .i64 m)) :
    Calls Tryz.prog 54 #[.string s, .int .i64 a, .string LB] w (ScP s (clip s a) LB.data.toList w) := by
  have HC := Lib.hid (cursorAt s a (by unfold maxLen; omega))
  have HM := Lib.hid hm
  have hk := clip_le s a
  generalize clip s a = k at HC hk ⊢
  have HK := Lib.hid hk
  have HS := Lib.hid hs
  obtain ⟨last, hlast⟩ : ∃ last, last = LB.data.toList := ⟨_, rfl⟩
  rw [← hlast]
  have HLA := Lib.hid hlast
  clear hm hk hs hlast
  go_enter Tryz.func54, Tryz.ntmps54
  go_wp2_with fail
  refine wp_scope_gotos_k (fun l n a' w' => ∃ b j, ScI s b k last l n w w' j ∧ ScF s a LB k b a') (fun _ => 0) ?hf ?first ?pass
  case hf =>
    rintro l n a' w' ⟨b, j, hI, _⟩
    have hl := hI.ll
    have hcase : l = 0 ∨ l = 1 ∨ l = 2 ∨ l = 3 ∨ l = 4 ∨ l = 5 ∨ l = 6 ∨ l = 7 := by omega
    rcases hcase with rfl | rfl | rfl | rfl | rfl | rfl | rfl | rfl <;> exact ⟨_, rfl⟩
  case first =>
    intro hall J R hJ hR
    have HJ := Lib.hid hJ
    have HALL := Lib.hid hall
    have HR := Lib.hid hR
    clear hJ hall hR
    go_wp2_with fail
    refine (HC.out _).mono ?_
    rintro e w1 ⟨rfl, hb1⟩
    have hat : At (w1.alloc (.cells #[.string s, .int .i64 k] 79)) w1.heap.size #[.string s, .int .i64 k] 79 s k := at_new rfl
    have hB : Below w.heap.size w (w1.alloc (.cells #[.string s, .int .i64 k] 79)) := below_alloc hb1 _
    have hle : w.heap.size ≤ w1.heap.size := hb1.size
    have HAT := Lib.hid hat
    clear hat
    go_wp2_with fail
    go_step3
    go_step
    go_step
    refine HALL.out 0 _ (10 * (s.size - k) + scK 0) _ _ rfl ?_ J R (fun l' n' a' w' _ h2 => HJ.out l' n' a' w' h2) HR.out
    exact ⟨w1.heap.size, k, ⟨HAT.out, hB, hle, HK.out, Nat.le_refl _, rfl, rfl, by omega⟩, by unfold ScF; (repeat apply Exists.intro); rfl⟩
  case pass =>
    intro l _ rest n a' w' hr hI J R hJ hR
    obtain ⟨b, j, hI, u10, u11, u12, u13, u14, u15, u16, u17, u18, u19, u20, u21, u22, u23, u24, u25, u26, u27, u28, u29, u30, u31, u32, u33, u34, u35, u36, u37, u38, u39, u40, u41, u42, u43, u44, u45, u46, u47, u48, u49, rfl⟩ := hI
    have HJ := Lib.hid hJ
    have HR := Lib.hid hR
    have HI := Lib.hid hI
    have hcur := hI.cur
    have hll := hI.ll
    have hjs := hI.js
    have hbel := hI.bel
    have hbw := hI.bw
    have hcase : l = 0 ∨ l = 1 ∨ l = 2 ∨ l = 3 ∨ l = 4 ∨ l = 5 ∨ l = 6 ∨ l = 7 := by omega
    clear hJ hR hI hll
    rcases hcase with rfl | rfl | rfl | rfl | rfl | rfl | rfl | rfl
    · injection hr with hr
      injection hr with _ hr
      subst hr
      have HU := Lib.hid (untilE 114 (fun args w => enters_of Tryz.func114 (by kernel_rfl) rfl args w) (fun r => decide ((r : Int) = 60)) false hi_less _ q_less b _ _ s j hjs (by have := HS.out; omega) _ (grows_less _) hcur)
      clear hcur
      go_wp2_with fail
      refine HU.out.mono ?_
      rintro e wu ⟨N, V, hN, hjN, rfl, _, _, hcur, hB⟩
      replace hbel := below_but hbel hB hbw
      have HD := Lib.hid (sc_data (last := last) hN)
      obtain ⟨j1, hj1e⟩ : ∃ j1, j1 = j + N := ⟨_, rfl⟩
      rw [← hj1e] at hjN hcur HD
      have HJ1 := Lib.hid hjN
      have HJJ := Lib.hid (show j ≤ j1 by omega)
      clear hN hB hj1e hjs
      have HSs := Lib.hid (stopsC b _ s LB (j1) hjN (by have := HS.out; omega) _ hcur)
      rw [← HLA.out] at HSs
      clear hcur
      by_cases hst : (decide (j1 = s.size) || closesL last (s.data.toList.drop (j1))) = true
      · rw [hst] at HSs
        have HST := Lib.hid hst
        clear hst
        go_wp2_with fail
        refine HSs.out.mono ?_
        rintro e ws ⟨rfl, hcur, hB⟩
        replace hbel := below_but hbel hB hbw
        have HKs := Lib.hid hcur
        have HKsb := Lib.hid hbel
        clear hcur hbel hB
        go_wp2_with fail
        go_step3
        show J 1 _ _
        refine HJ.out 1 (10 * (s.size - (j1)) + scK 1) _ _ (by have := HI.out.nm; simp only [scK] at this ⊢; have := HI.out.js; have := HJJ.out; have := HJ1.out; omega) ⟨b, j1, ⟨HKs.out, HKsb.out, HI.out.bw, HJ1.out, by have := HI.out.kj; have := HJJ.out; omega, ?_, rfl, by omega⟩, by unfold ScF; (repeat apply Exists.intro); rfl⟩
        exact (HI.out.eq.trans HD.out).trans (sc_stop (by omega) HST.out)
      · rw [Bool.not_eq_true] at hst
        rw [hst] at HSs
        have hne : ¬ j1 = s.size := by intro e; rw [e, decide_eq_true rfl, Bool.true_or] at hst; cases hst
        have hcl : closesL last (s.data.toList.drop (j1)) = false := by rw [decide_eq_false hne, Bool.false_or] at hst; exact hst
        have HNE := Lib.hid hne
        have HCL := Lib.hid hcl
        clear hst hne hcl
        go_wp2_with fail
        refine HSs.out.mono ?_
        rintro e ws ⟨rfl, hcur, hB⟩
        replace hbel := below_but hbel hB hbw
        clear hB
        have HTa := Lib.hid (tookE b _ _ s ⟨#[60, 33]⟩ (j1) 2 rfl hjN (by have := HS.out; omega) _ hcur)
        clear hcur
        go_wp2_with fail
        refine HTa.out.mono ?_
        rintro e wa (⟨rfl, hp, hj1, hcur, hB⟩ | ⟨rfl, hp, hcur, hB⟩)
        · replace hbel := below_but hbel hB hbw
          have HPa := Lib.hid hp
          have HJa := Lib.hid hj1
          have HKa := Lib.hid hcur
          have HKab := Lib.hid hbel
          clear hp hj1 hcur hbel hB
          go_wp2_with fail
          go_step3
          show J 2 _ _
          refine HJ.out 2 (10 * (s.size - (j1 + 2)) + scK 2) _ _ (by have := HI.out.nm; simp only [scK] at this ⊢; have := HI.out.js; have := HJJ.out; have := HJa.out; omega) ⟨b, j1 + 2, ⟨HKa.out, HKab.out, HI.out.bw, HJa.out, by have := HI.out.kj; have := HJJ.out; omega, ?_, rfl, by omega⟩, by unfold ScF; (repeat apply Exists.intro); rfl⟩
          exact (HI.out.eq.trans HD.out).trans (by show scL last 0 0 _ = scL last 0 0 _; rw [pre_two HPa.out])
        · replace hbel := below_but hbel hB hbw
          have HPa := Lib.hid hp
          clear hp hB
          have hj1 : j1 + 1 ≤ s.size := by have := HNE.out; have := HJ1.out; omega
          have HJt := Lib.hid hj1
          have HTkt := Lib.hid (takeE b _ _ s (j1) 1 hj1 (by have := HS.out; omega) _ hcur)
          clear hcur hj1
          go_wp2_with fail
          refine HTkt.out.mono ?_
          rintro e wt ⟨Vt, rfl, _, _, hcur, hB⟩
          replace hbel := below_but hbel hB hbw
          have HKt := Lib.hid hcur
          have HKtb := Lib.hid hbel
          clear hcur hbel hB
          go_wp2_with fail
          go_step3
          show J 0 _ _
          refine HJ.out 0 (10 * (s.size - (j1 + 1)) + scK 0) _ _ (by have := HI.out.nm; simp only [scK] at this ⊢; have := HI.out.js; have := HJJ.out; have := HJt.out; omega) ⟨b, j1 + 1, ⟨HKt.out, HKtb.out, HI.out.bw, HJt.out, by have := HI.out.kj; have := HJJ.out; omega, ?_, rfl, by omega⟩, by unfold ScF; (repeat apply Exists.intro); rfl⟩
          exact (HI.out.eq.trans HD.out).trans (sc_data_step HJt.out HCL.out HPa.out)
    · injection hr with hr
      injection hr with _ hr
      subst hr
      have g0 := hcur.cell0
      have g1 := hcur.cell1
      have gl := hcur.lt
      have hkj : (k : Int) ≤ (j : Int) := by have := HI.out.kj; omega
      have hjs' : (j : Int) ≤ (s.size : Int) := by omega
      have hX : (s.extract k j).data.toList = (s.data.toList.drop k).take (j - k) := by rw [Lib.extract_data]
      have hz : (s.extract k j).size ≤ 1000000 := by rw [ByteArray.size_extract]; have := HS.out; omega
      obtain ⟨RES, hRES⟩ : ∃ RES, RES = bl (nulL (s.extract k j).data.toList) := ⟨_, rfl⟩
      have HKp : Hid (∀ w2, (w2.cell? ⟨b, 1, none⟩ = some (.int .i64 j) ∧ b < w2.heap.size ∧ Below w'.heap.size w' w2) → Calls Tryz.prog 120 #[.string (s.extract k j)] w2 fun e w3 => e = .returned (.string RES) ∧
          w3.cell? ⟨b, 1, none⟩ = some (.int .i64 j) ∧ b < w3.heap.size ∧ Below w'.heap.size w' w3) := Lib.hid (by
        rintro w2 ⟨y1, y2, y3⟩
        refine (kept m _ (by omega) w2 (carry HM.out (below_next hbel y3))).mono ?_
        rintro e w3 ⟨rfl, hb⟩
        exact ⟨by rw [hRES], (hb.cell (p := ⟨b, 1, none⟩) y2).trans y1, Nat.lt_of_lt_of_le y2 hb.size, below_next y3 hb⟩)
      rw [hX] at hRES
      have HRES := Lib.hid hRES
      have HBEL := Lib.hid hbel
      clear hcur hX hz hRES hbel
      go_wp2_with fail
      go_region_held3 (fun w2 => w2.cell? ⟨b, 1, none⟩ = some (.int .i64 j) ∧ b < w2.heap.size ∧ Below w'.heap.size w' w2)
        (first | exact ⟨g1, gl, Below.drew (Below.refl _ _)⟩ | exact ⟨by assumption, by assumption, by assumption⟩ | go_keep)
        (first | (go_at_call 120; refine (HKp.out _ (by first | assumption | exact ⟨by assumption, by assumption, by first | assumption | exact Below.drew (by assumption)⟩)).mono ?_; rintro e wx ⟨rfl, d1, d2, d3⟩))
      all_goals
        go_wp2_with fail
        show R _ _
        refine HR.out _ _ ?_
        go_ret2
        have hkj := HI.out.kj
        refine ⟨j - k, ?_, by have := HI.out.js; omega, ret2_SI' HRES.out (by omega), below_next HBEL.out d3⟩
        rw [HI.out.eq, List.drop_drop, show k + (j - k) = j by omega]
        rfl
    · injection hr with hr
      injection hr with _ hr
      subst hr
      have HTa := Lib.hid (tookE b _ _ s ⟨#[45]⟩ (j) 1 rfl hjs (by have := HS.out; omega) _ hcur)
      clear hcur
      go_wp2_with fail
      refine HTa.out.mono ?_
      rintro e wa (⟨rfl, hp, hj1, hcur, hB⟩ | ⟨rfl, hp, hcur, hB⟩)
      · replace hbel := below_but hbel hB hbw
        have HPa := Lib.hid hp
        have HJa := Lib.hid hj1
        have HKa := Lib.hid hcur
        have HKab := Lib.hid hbel
        clear hp hj1 hcur hbel hB
        go_wp2_with fail
        go_step3
        show J 3 _ _
        refine HJ.out 3 (10 * (s.size - (j + 1)) + scK 3) _ _ (by have := HI.out.nm; simp only [scK] at this ⊢; have := HI.out.js; have := HJa.out; omega) ⟨b, j + 1, ⟨HKa.out, HKab.out, HI.out.bw, HJa.out, by have := HI.out.kj; omega, ?_, rfl, by omega⟩, by unfold ScF; (repeat apply Exists.intro); rfl⟩
        exact HI.out.eq.trans (by show scL last 0 0 _ = scL last 0 0 _; rw [pre_1 HPa.out])
      · replace hbel := below_but hbel hB hbw
        have HPa := Lib.hid hp
        clear hp hB
        have HKz := Lib.hid hcur
        have HKzb := Lib.hid hbel
        clear hcur hbel
        go_wp2_with fail
        go_step3
        show J 0 _ _
        refine HJ.out 0 (10 * (s.size - (j)) + scK 0) _ _ (by have := HI.out.nm; simp only [scK] at this ⊢; have := HI.out.js; have := HI.out.js; omega) ⟨b, j, ⟨HKz.out, HKzb.out, HI.out.bw, HI.out.js, by have := HI.out.kj; omega, ?_, rfl, by omega⟩, by unfold ScF; (repeat apply Exists.intro); rfl⟩
        exact HI.out.eq.trans (scL_bang _ _ (by intro e; have h := pre_0' HPa.out; cases ht : s.data.toList.drop j with | nil => rw [ht] at e; simp [List.isPrefixOf] at e | cons y t => rw [ht] at e h; simp [List.isPrefixOf] at e; simp at h; exact h e.1.symm))
    · injection hr with hr
      injection hr with _ hr
      subst hr
      have HTa := Lib.hid (tookE b _ _ s ⟨#[45]⟩ (j) 1 rfl hjs (by have := HS.out; omega) _ hcur)
      clear hcur
      go_wp2_with fail
      refine HTa.out.mono ?_
      rintro e wa (⟨rfl, hp, hj1, hcur, hB⟩ | ⟨rfl, hp, hcur, hB⟩)
      · replace hbel := below_but hbel hB hbw
        have HPa := Lib.hid hp
        have HJa := Lib.hid hj1
        have HKa := Lib.hid hcur
        have HKab := Lib.hid hbel
        clear hp hj1 hcur hbel hB
        go_wp2_with fail
        go_step3
        show J 4 _ _
        refine HJ.out 4 (10 * (s.size - (j + 1)) + scK 4) _ _ (by have := HI.out.nm; simp only [scK] at this ⊢; have := HI.out.js; have := HJa.out; omega) ⟨b, j + 1, ⟨HKa.out, HKab.out, HI.out.bw, HJa.out, by have := HI.out.kj; omega, ?_, rfl, by omega⟩, by unfold ScF; (repeat apply Exists.intro); rfl⟩
        exact HI.out.eq.trans (by show scL last 0 0 _ = scL last 1 2 _; rw [pre_1 HPa.out, scL_open])
      · replace hbel := below_but hbel hB hbw
        have HPa := Lib.hid hp
        clear hp hB
        have HKz := Lib.hid hcur
        have HKzb := Lib.hid hbel
        clear hcur hbel
        go_wp2_with fail
        go_step3
        show J 0 _ _
        refine HJ.out 0 (10 * (s.size - (j)) + scK 0) _ _ (by have := HI.out.nm; simp only [scK] at this ⊢; have := HI.out.js; have := HI.out.js; omega) ⟨b, j, ⟨HKz.out, HKzb.out, HI.out.bw, HI.out.js, by have := HI.out.kj; omega, ?_, rfl, by omega⟩, by unfold ScF; (repeat apply Exists.intro); rfl⟩
        exact HI.out.eq.trans (sc_bang1 (pre_0' HPa.out))
    · injection hr with hr
      injection hr with _ hr
      subst hr
      have HTa := Lib.hid (tookE b _ _ s ⟨#[45]⟩ (j) 1 rfl hjs (by have := HS.out; omega) _ hcur)
      clear hcur
      go_wp2_with fail
      refine HTa.out.mono ?_
      rintro e wa (⟨rfl, hp, hj1, hcur, hB⟩ | ⟨rfl, hp, hcur, hB⟩)
      · replace hbel := below_but hbel hB hbw
        have HPa := Lib.hid hp
        have HJa := Lib.hid hj1
        have HKa := Lib.hid hcur
        have HKab := Lib.hid hbel
        clear hp hj1 hcur hbel hB
        go_wp2_with fail
        go_step3
        show J 4 _ _
        refine HJ.out 4 (10 * (s.size - (j + 1)) + scK 4) _ _ (by have := HI.out.nm; simp only [scK] at this ⊢; have := HI.out.js; have := HJa.out; omega) ⟨b, j + 1, ⟨HKa.out, HKab.out, HI.out.bw, HJa.out, by have := HI.out.kj; omega, ?_, rfl, by omega⟩, by unfold ScF; (repeat apply Exists.intro); rfl⟩
        exact HI.out.eq.trans (by show scL last 1 2 _ = scL last 1 2 _; rw [pre_1 HPa.out, scL_dash _ _ _ _ (by decide)]; rfl)
      · replace hbel := below_but hbel hB hbw
        have HPa := Lib.hid hp
        clear hp hB
        have HTb := Lib.hid (tookE b _ _ s ⟨#[62]⟩ (j) 1 rfl hjs (by have := HS.out; omega) _ hcur)
        clear hcur
        go_wp2_with fail
        refine HTb.out.mono ?_
        rintro e wb (⟨rfl, hp, hj1, hcur, hB⟩ | ⟨rfl, hp, hcur, hB⟩)
        · replace hbel := below_but hbel hB hbw
          have HPb := Lib.hid hp
          have HJb := Lib.hid hj1
          have HKb := Lib.hid hcur
          have HKbb := Lib.hid hbel
          clear hp hj1 hcur hbel hB
          go_wp2_with fail
          go_step3
          show J 0 _ _
          refine HJ.out 0 (10 * (s.size - (j + 1)) + scK 0) _ _ (by have := HI.out.nm; simp only [scK] at this ⊢; have := HI.out.js; have := HJb.out; omega) ⟨b, j + 1, ⟨HKb.out, HKbb.out, HI.out.bw, HJb.out, by have := HI.out.kj; omega, ?_, rfl, by omega⟩, by unfold ScF; (repeat apply Exists.intro); rfl⟩
          exact HI.out.eq.trans (by show scL last 1 2 _ = scL last 0 0 _; rw [pre_1 HPb.out, scL_gt _ _ _ (by decide)])
        · replace hbel := below_but hbel hB hbw
          have HPb := Lib.hid hp
          clear hp hB
          have HKz := Lib.hid hcur
          have HKzb := Lib.hid hbel
          clear hcur hbel
          go_wp2_with fail
          go_step3
          show J 7 _ _
          refine HJ.out 7 (10 * (s.size - (j)) + scK 7) _ _ (by have := HI.out.nm; simp only [scK] at this ⊢; have := HI.out.js; have := HI.out.js; omega) ⟨b, j, ⟨HKz.out, HKzb.out, HI.out.bw, HI.out.js, by have := HI.out.kj; omega, ?_, rfl, by omega⟩, by unfold ScF; (repeat apply Exists.intro); rfl⟩
          exact HI.out.eq.trans (scL_d _ _ _ _ (pre_0' HPa.out) (.inl (pre_0' HPb.out)))
    · injection hr with hr
      injection hr with _ hr
      subst hr
      have HTa := Lib.hid (tookE b _ _ s ⟨#[45]⟩ (j) 1 rfl hjs (by have := HS.out; omega) _ hcur)
      clear hcur
      go_wp2_with fail
      refine HTa.out.mono ?_
      rintro e wa (⟨rfl, hp, hj1, hcur, hB⟩ | ⟨rfl, hp, hcur, hB⟩)
      · replace hbel := below_but hbel hB hbw
        have HPa := Lib.hid hp
        have HJa := Lib.hid hj1
        have HKa := Lib.hid hcur
        have HKab := Lib.hid hbel
        clear hp hj1 hcur hbel hB
        go_wp2_with fail
        go_step3
        show J 4 _ _
        refine HJ.out 4 (10 * (s.size - (j + 1)) + scK 4) _ _ (by have := HI.out.nm; simp only [scK] at this ⊢; have := HI.out.js; have := HJa.out; omega) ⟨b, j + 1, ⟨HKa.out, HKab.out, HI.out.bw, HJa.out, by have := HI.out.kj; omega, ?_, rfl, by omega⟩, by unfold ScF; (repeat apply Exists.intro); rfl⟩
        exact HI.out.eq.trans (by show scL last 1 1 _ = scL last 1 2 _; rw [pre_1 HPa.out, scL_dash _ _ _ _ (by decide)]; rfl)
      · replace hbel := below_but hbel hB hbw
        have HPa := Lib.hid hp
        clear hp hB
        have HKz := Lib.hid hcur
        have HKzb := Lib.hid hbel
        clear hcur hbel
        go_wp2_with fail
        go_step3
        show J 7 _ _
        refine HJ.out 7 (10 * (s.size - (j)) + scK 7) _ _ (by have := HI.out.nm; simp only [scK] at this ⊢; have := HI.out.js; have := HI.out.js; omega) ⟨b, j, ⟨HKz.out, HKzb.out, HI.out.bw, HI.out.js, by have := HI.out.kj; omega, ?_, rfl, by omega⟩, by unfold ScF; (repeat apply Exists.intro); rfl⟩
        exact HI.out.eq.trans (scL_d _ _ _ _ (pre_0' HPa.out) (.inr (by decide)))
    · injection hr with hr
      injection hr with _ hr
      subst hr
      have HTS := Lib.hid (tookScriptC b _ s j hjs (by have := HS.out; omega) _ hcur)
      clear hcur
      go_wp2_with fail
      refine HTS.out.mono ?_
      rintro e w1 ⟨r, n', j', rfl, hn, hj's, hjj, hor, hcur, hB⟩
      replace hbel := below_but hbel hB hbw
      have HW := Lib.hid (scW_took (last := last) (m' := 1) hn hor)
      have HJ' := Lib.hid hj's
      have HJJ := Lib.hid hjj
      clear hn hor hB hjj
      cases r
      · have HKz := Lib.hid hcur
        have HKzb := Lib.hid hbel
        clear hcur hbel
        go_wp2_with fail
        go_step3
        show J 7 _ _
        refine HJ.out 7 (10 * (s.size - (j')) + scK 7) _ _ (by have := HI.out.nm; simp only [scK] at this ⊢; have := HI.out.js; have := HJJ.out; have := HJ'.out; omega) ⟨b, j', ⟨HKz.out, HKzb.out, HI.out.bw, HJ'.out, by have := HI.out.kj; have := HJJ.out; omega, ?_, rfl, by omega⟩, by unfold ScF; (repeat apply Exists.intro); rfl⟩
        exact HI.out.eq.trans HW.out
      · have HTD := Lib.hid (tookDoubleC last b _ s j' hj's (by have := HS.out; omega) _ hcur)
        clear hcur
        go_wp2_with fail
        refine HTD.out.mono ?_
        rintro e w2 ⟨r, j2, rfl, hj2, hj2s, heq, hcur, hB⟩
        replace hbel := below_but hbel hB hbw
        have HKz := Lib.hid hcur
        have HKzb := Lib.hid hbel
        have HJ2 := Lib.hid hj2
        have HJ2S := Lib.hid hj2s
        have HE := Lib.hid heq
        clear hcur hbel hj2 hj2s heq hB hj's
        cases r
        · go_wp2_with fail
          go_step3
          show J 0 _ _
          refine HJ.out 0 (10 * (s.size - (j2)) + scK 0) _ _ (by have := HI.out.nm; simp only [scK] at this ⊢; have := HI.out.js; have := HJJ.out; have := HJ2.out; have := HJ2S.out; omega) ⟨b, j2, ⟨HKz.out, HKzb.out, HI.out.bw, HJ2S.out, by have := HI.out.kj; have := HJJ.out; have := HJ2.out; omega, ?_, rfl, by omega⟩, by unfold ScF; (repeat apply Exists.intro); rfl⟩
          exact HI.out.eq.trans (HW.out.trans HE.out)
        · go_wp2_with fail
          go_step3
          show J 7 _ _
          refine HJ.out 7 (10 * (s.size - (j2)) + scK 7) _ _ (by have := HI.out.nm; simp only [scK] at this ⊢; have := HI.out.js; have := HJJ.out; have := HJ2.out; have := HJ2S.out; omega) ⟨b, j2, ⟨HKz.out, HKzb.out, HI.out.bw, HJ2S.out, by have := HI.out.kj; have := HJJ.out; have := HJ2.out; omega, ?_, rfl, by omega⟩, by unfold ScF; (repeat apply Exists.intro); rfl⟩
          exact HI.out.eq.trans (HW.out.trans HE.out)
    · injection hr with hr
      injection hr with _ hr
      subst hr
      have HSs := Lib.hid (stopsC b _ s LB (j) hjs (by have := HS.out; omega) _ hcur)
      rw [← HLA.out] at HSs
      clear hcur
      by_cases hst : (decide (j = s.size) || closesL last (s.data.toList.drop (j))) = true
      · rw [hst] at HSs
        have HST := Lib.hid hst
        clear hst
        go_wp2_with fail
        refine HSs.out.mono ?_
        rintro e ws ⟨rfl, hcur, hB⟩
        replace hbel := below_but hbel hB hbw
        have HKs := Lib.hid hcur
        have HKsb := Lib.hid hbel
        clear hcur hbel hB
        go_wp2_with fail
        go_step3
        show J 1 _ _
        refine HJ.out 1 (10 * (s.size - (j)) + scK 1) _ _ (by have := HI.out.nm; simp only [scK] at this ⊢; have := HI.out.js; have := HI.out.js; omega) ⟨b, j, ⟨HKs.out, HKsb.out, HI.out.bw, HI.out.js, by have := HI.out.kj; omega, ?_, rfl, by omega⟩, by unfold ScF; (repeat apply Exists.intro); rfl⟩
        exact HI.out.eq.trans (sc_stop (by omega) HST.out)
      · rw [Bool.not_eq_true] at hst
        rw [hst] at HSs
        have hne : ¬ j = s.size := by intro e; rw [e, decide_eq_true rfl, Bool.true_or] at hst; cases hst
        have hcl : closesL last (s.data.toList.drop (j)) = false := by rw [decide_eq_false hne, Bool.false_or] at hst; exact hst
        have HNE := Lib.hid hne
        have HCL := Lib.hid hcl
        clear hst hne hcl
        go_wp2_with fail
        refine HSs.out.mono ?_
        rintro e ws ⟨rfl, hcur, hB⟩
        replace hbel := below_but hbel hB hbw
        clear hB
        have HTa := Lib.hid (tookE b _ _ s ⟨#[45]⟩ (j) 1 rfl hjs (by have := HS.out; omega) _ hcur)
        clear hcur
        go_wp2_with fail
        refine HTa.out.mono ?_
        rintro e wa (⟨rfl, hp, hj1, hcur, hB⟩ | ⟨rfl, hp, hcur, hB⟩)
        · replace hbel := below_but hbel hB hbw
          have HPa := Lib.hid hp
          have HJa := Lib.hid hj1
          have HKa := Lib.hid hcur
          have HKab := Lib.hid hbel
          clear hp hj1 hcur hbel hB
          go_wp2_with fail
          go_step3
          show J 5 _ _
          refine HJ.out 5 (10 * (s.size - (j + 1)) + scK 5) _ _ (by have := HI.out.nm; simp only [scK] at this ⊢; have := HI.out.js; have := HJa.out; omega) ⟨b, j + 1, ⟨HKa.out, HKab.out, HI.out.bw, HJa.out, by have := HI.out.kj; omega, ?_, rfl, by omega⟩, by unfold ScF; (repeat apply Exists.intro); rfl⟩
          exact HI.out.eq.trans (by show scL last 1 0 _ = scL last 1 1 _; rw [pre_1 HPa.out, scL_dash _ _ _ _ (by decide)]; rfl)
        · replace hbel := below_but hbel hB hbw
          have HPa := Lib.hid hp
          clear hp hB
          have HTO := Lib.hid (tookOpeningC b s j hjs (by have := HS.out; omega) _ hcur)
          clear hcur
          go_wp2_with fail
          refine HTO.out.mono ?_
          rintro e wo (⟨rfl, hp, hl, hj1, hcur, hB⟩ | ⟨rfl, hp, hcur, hB⟩)
          · replace hbel := below_but hbel hB hbw
            have HPo := Lib.hid hp
            have HL := Lib.hid hl
            have HJo := Lib.hid hj1
            have HKo := Lib.hid hcur
            have HKob := Lib.hid hbel
            clear hp hl hj1 hcur hbel hB
            go_wp2_with fail
            go_step3
            show J 6 _ _
            refine HJ.out 6 (10 * (s.size - (j + 1)) + scK 6) _ _ (by have := HI.out.nm; simp only [scK] at this ⊢; have := HI.out.js; have := HJo.out; omega) ⟨b, j + 1, ⟨HKo.out, HKob.out, HI.out.bw, HJo.out, by have := HI.out.kj; omega, ?_, rfl, by omega⟩, by unfold ScF; (repeat apply Exists.intro); rfl⟩
            exact HI.out.eq.trans (sc_word HCL.out HPo.out HL.out)
          · replace hbel := below_but hbel hB hbw
            have HPo := Lib.hid hp
            clear hp hB
            have hj1 : j + 1 ≤ s.size := by have := HNE.out; omega
            have HJt := Lib.hid hj1
            have HTkt := Lib.hid (takeE b _ _ s (j) 1 hj1 (by have := HS.out; omega) _ hcur)
            clear hcur hj1
            go_wp2_with fail
            refine HTkt.out.mono ?_
            rintro e wt ⟨Vt, rfl, _, _, hcur, hB⟩
            replace hbel := below_but hbel hB hbw
            have HKt := Lib.hid hcur
            have HKtb := Lib.hid hbel
            clear hcur hbel hB
            go_wp2_with fail
            go_step3
            show J 7 _ _
            refine HJ.out 7 (10 * (s.size - (j + 1)) + scK 7) _ _ (by have := HI.out.nm; simp only [scK] at this ⊢; have := HI.out.js; have := HJt.out; omega) ⟨b, j + 1, ⟨HKt.out, HKtb.out, HI.out.bw, HJt.out, by have := HI.out.kj; omega, ?_, rfl, by omega⟩, by unfold ScF; (repeat apply Exists.intro); rfl⟩
            exact HI.out.eq.trans (sc_esc_step HJt.out HCL.out HPa.out HPo.out)
end Go.Proofs.YtnfccckodgknjaaGreatDoor
