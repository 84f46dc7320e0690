/-
  The readers over classes: Name, Plaintext, Closes.
  Closes: whether an end tag begins.
-/
import Derived.Test.YtnfccckodgknjaaGreatDoorY30
import Derived.Test.YtnfccckodgknjaaGreatDoorY07
import Derived.Test.YtnfccckodgknjaaGreatDoorY27
namespace Go.Proofs.YtnfccckodgknjaaGreatDoor
open Go.RowKit Go.Shelf Go.Lib
set_option maxHeartbeats 1000000
set_option maxRecDepth 100000

theorem q_en : (qOf fun r => enB r) = enU := by
  funext b
  unfold qOf enB enU ewB gtB spU
  have h1 : decide ((b.toNat : Int) = 62) = (b == 62) := by rw [Bool.eq_iff_iff]; simp [← UInt8.toNat_inj]; omega
  have h2 : decide ((b.toNat : Int) = 47) = (b == 47) := by rw [Bool.eq_iff_iff]; simp [← UInt8.toNat_inj]; omega
  show (spB (b.toNat : Int) || decide ((b.toNat : Int) = 62) || decide ((b.toNat : Int) = 47)) = _
  rw [h1, h2]
theorem q_ew : (qOf fun r => ewB r) = ewU := by
  funext b
  unfold qOf ewU ewB gtB spU
  have h1 : decide ((b.toNat : Int) = 62) = (b == 62) := by rw [Bool.eq_iff_iff]; simp [← UInt8.toNat_inj]; omega
  show (spB (b.toNat : Int) || decide ((b.toNat : Int) = 62)) = _
  rw [h1]
theorem q_qu : (qOf fun r => quB r) = quU := by
  funext b
  show (decide ((b.toNat : Int) = 34) || decide ((b.toNat : Int) = 39)) = (b == 34 || b == 39)
  have h1 : decide ((b.toNat : Int) = 34) = (b == 34) := by rw [Bool.eq_iff_iff]; simp [← UInt8.toNat_inj]; omega
  have h2 : decide ((b.toNat : Int) = 39) = (b == 39) := by rw [Bool.eq_iff_iff]; simp [← UInt8.toNat_inj]; omega
  rw [h1, h2]
theorem q_one (n : Nat) (c : UInt8) (h : c.toNat = n) : (qOf fun r => decide ((r : Int) = n)) = fun b => b == c := by
  funext b
  unfold qOf
  rw [Bool.eq_iff_iff]
  simp [← UInt8.toNat_inj]
  omega
theorem sees_q (p : Nat → Bool) (t : List UInt8) : seesB p t = (match t with | [] => false | c :: _ => qOf p c) := by cases t <;> rfl

theorem lowU_low' (b : UInt8) : lowU b = lowB b := by
  apply UInt8.toNat_inj.1
  have h := lowU_toNat b
  unfold lowZ upB at h
  unfold lowB
  by_cases c : 65 ≤ b ∧ b ≤ 90
  · rw [if_pos c]
    simp only [UInt8.le_iff_toNat_le] at c
    have h1 : (65 : UInt8).toNat = 65 := rfl
    have h2 : (90 : UInt8).toNat = 90 := rfl
    have h3 : (32 : UInt8).toNat = 32 := rfl
    rw [if_pos (by simp; omega)] at h
    have e : (b + 32).toNat = b.toNat + 32 := by rw [UInt8.toNat_add, h3]; omega
    omega
  · rw [if_neg c]
    simp only [UInt8.le_iff_toNat_le] at c
    have h1 : (65 : UInt8).toNat = 65 := rfl
    have h2 : (90 : UInt8).toNat = 90 := rfl
    rw [if_neg (by simp; omega)] at h
    omega
theorem lowS_eq (s : ByteArray) : lowS s = bl (lowL s.data.toList) := by
  unfold lowS bl lowL
  congr 2
  exact List.map_congr_left fun b _ => lowU_low' b

theorem ext_take (s : ByteArray) (k n : Nat) (_h : k + n ≤ s.size) : (s.extract k (k + n)).data.toList = (s.data.toList.drop k).take n := by
  rw [Lib.extract_data]
  congr 1
  omega

theorem keptE (m : Int) (p : ByteArray) (hp : p.size ≤ 10000000) (w : World) (hm : w.cell? ⟨1, 0, none⟩ = some (.int .i64 m)) :
    Calls Tryz.prog 120 #[.string p] w fun e w' => ∃ S : ByteArray, e = .returned (.string S) ∧ S.data.toList = nulL p.data.toList ∧ S.size ≤ 3 * p.size ∧ Below w.heap.size w w' :=
  (kept m p hp w hm).mono (by
    rintro e w' ⟨rfl, h⟩
    refine ⟨_, rfl, rfl, ?_, h⟩
    rw [bl_size, ← size_list]
    exact nulL_len _)
theorem lowerE (s : ByteArray) (hs : s.size ≤ 100000000) (w : World) :
    Calls Tryz.prog 112 #[.string s] w fun e w' => ∃ S : ByteArray, e = .returned (.string S) ∧ S.data.toList = lowL s.data.toList ∧ S.size = s.size ∧ Below w.heap.size w w' :=
  (lower s (by unfold maxLen; omega) w).mono (by
    rintro e w' ⟨rfl, h⟩
    refine ⟨_, rfl, by rw [lowS_eq]; rfl, lowS_size s, h⟩)
theorem untilE (g : Nat) (eg : ∀ args w, (callFunc g args).run Tryz.prog w = .ok (.enter g args) w) (p : Nat → Bool) (H : Bool) (hH : ∀ r, 128 ≤ r → r ≤ 1114111 → p r = H) (q : UInt8 → Bool) (hq : qOf p = q)
    (b : Nat) (x : Value) (T : TypeId) (s : ByteArray) (k : Nat) (hk : k ≤ s.size) (hs : s.size ≤ 1000000000) (w : World) (hp : PredGrows Tryz.prog g #[] p w) (h : At w b #[.string s, x] T s k) :
    Calls Tryz.prog 106 #[.pointer (some ⟨b, 0, none⟩), .func (.func g) #[] #[]] w fun e w' => ∃ (N : Nat) (V : ByteArray), N = runN q (s.data.toList.drop k) ∧ k + N ≤ s.size ∧
      e = .returned (.string V) ∧ V.data.toList = (s.data.toList.drop k).take N ∧ V.size = N ∧ At w' b #[.string s, .int .i64 ((k + N : Nat) : Int)] T s (k + N) ∧ But b w w' := by
  subst hq
  refine (curUntil g #[] eg p H hH b _ T s k hk hs w hp h).mono ?_
  rintro e w' ⟨N, h1, h2, rfl, h3, h4⟩
  exact ⟨N, _, h1, h2, rfl, ext_take s k N h2, by rw [ByteArray.size_extract]; omega, h3, h4⟩
theorem ret2_SI {S : ByteArray} {l : List UInt8} {i j : Int} (h : S.data.toList = l) (h2 : i = j) : Ending.returned (.tuple #[.string S, .int .i64 i]) = .returned (.tuple #[.string (bl l), .int .i64 j]) := by rw [bl_eq h, h2]

theorem nameC (s : ByteArray) (a : Int) (m : Int) (hs : s.size ≤ 10000000) (w : World) (hm : w.cell? ⟨1, 0, none⟩ = some (.int .i64 m)) :
    Calls Tryz.prog 110 #[.string s, .int .i64 a] w fun e w' => e = .returned (.tuple #[.string (bl (lowL (nulL ((tlS s a).take (runN enU (tlS s a)))))), .int .i64 ((clip s a + runN enU (tlS s a) : Nat) : Int)]) ∧ Below w.heap.size w w' := by
  have HC := Lib.hid (cursorAt s a (by unfold maxLen; omega))
  have HM := Lib.hid hm
  have hk := clip_le s a
  unfold tlS
  generalize clip s a = k at HC hk ⊢
  have HK := Lib.hid hk
  have HS := Lib.hid hs
  clear hm hk hs
  go_enter Tryz.func110, Tryz.ntmps110
  go_wp2_with fail
  refine (HC.out _).mono ?_
  rintro e w1 ⟨rfl, hb1⟩
  have hat : At (w1.alloc (.cells #[.string s, .int .i64 k] 79)) w1.heap.size #[.string s, .int .i64 k] 79 s k := at_new rfl
  have hB : Below w.heap.size w (w1.alloc (.cells #[.string s, .int .i64 k] 79)) := below_alloc hb1 _
  have hle : w.heap.size ≤ w1.heap.size := hb1.size
  have HU := Lib.hid (untilE 113 (fun args w => enters_of Tryz.func113 (by kernel_rfl) rfl args w) (fun r => enB r) false hi_name _ q_en
    w1.heap.size _ 79 s k HK.out (by have := HS.out; omega) _ (grows_name _) hat)
  clear hat
  go_wp2_with fail
  refine HU.out.mono ?_
  rintro e w2 ⟨n, V, hn, hkn, rfl, hV, hVn, h2, hB2⟩
  have hBB : Below w.heap.size w w2 := below_but hB hB2 hle
  have HKe := Lib.hid (keptE m V (by have := HS.out; omega) w2 (carry HM.out hBB))
  have HX := Lib.hid hV
  have HN := Lib.hid hn
  have HV := Lib.hid hVn
  have HKN := Lib.hid hkn
  clear hn hkn hV hVn
  go_wp2_with fail
  refine HKe.out.mono ?_
  rintro e w3 ⟨V3, rfl, hV3, hz3, hb3⟩
  have h3 := h2.below hb3
  have HLo := Lib.hid (lowerE V3 (by have := HS.out; have := HV.out; have := HKN.out; omega))
  have HX3 := Lib.hid hV3
  clear hV3 hz3
  go_wp2_with fail
  refine (HLo.out _).mono ?_
  rintro e w4 ⟨V4, rfl, hV4, _, hb4⟩
  have HX4 := Lib.hid hV4
  have h4 := h3.below hb4
  have c1 := h4.cell1
  clear hV4
  go_wp2_with fail
  go_quiet (fail)
  go_wp2_with fail
  go_ret2
  exact ⟨ret2_SI (by rw [HX4.out, HX3.out, HX.out, HN.out]) (by have := HN.out; simp; omega), _root_.Go.below_drewN (below_next (below_next hBB hb3) hb4) nq⟩

end Go.Proofs.YtnfccckodgknjaaGreatDoor

namespace Go.Proofs.YtnfccckodgknjaaGreatDoor
open Go.RowKit Go.Shelf Go.Lib
set_option maxHeartbeats 1000000
set_option maxRecDepth 100000

theorem isNoLetter (r : Int) (w : World) : Calls Tryz.prog 111 #[.int .i32 r] w fun e w' => e = .returned (.bool (!letB r)) ∧ Below w.heap.size w w' := by
  have HS := Lib.hid (isLetter r)
  go_enter Tryz.func111, Tryz.ntmps111
  generalize letB r = x at HS ⊢
  go_wp2_with fail
  refine (HS.out _).mono ?_
  rintro e w2 ⟨rfl, hb2⟩
  go_wp2_with fail
  go_ret
  exact ⟨rfl, hb2⟩
theorem grows_noLetter (w : World) : PredGrows Tryz.prog 111 #[] (fun r => !letB r) w := fun W x _ _ => isNoLetter x W
theorem hi_noLetter : ∀ r : Nat, 128 ≤ r → r ≤ 1114111 → (!letB r) = true := fun r h _ => by simp [letB]; omega

theorem tookE (b : Nat) (x : Value) (T : TypeId) (s p : ByteArray) (k n : Nat) (hn : p.size = n) (hk : k ≤ s.size) (hs : s.size ≤ 1000000000) (w : World) (h : At w b #[.string s, x] T s k) :
    Calls Tryz.prog 63 #[.pointer (some ⟨b, 0, none⟩), .string p] w fun e w' =>
      (e = .returned (.bool true) ∧ p.data.toList.isPrefixOf (s.data.toList.drop k) = true ∧ k + n ≤ s.size ∧ At w' b #[.string s, .int .i64 ((k + n : Nat) : Int)] T s (k + n) ∧ But b w w') ∨
      (e = .returned (.bool false) ∧ p.data.toList.isPrefixOf (s.data.toList.drop k) = false ∧ At w' b #[.string s, x] T s k ∧ But b w w') := by
  subst hn
  refine (curTook b _ T s p k hk hs w h).mono ?_
  rintro e w' (⟨rfl, h1, h2, h3, h4⟩ | ⟨rfl, h1, h3, h4⟩)
  · exact .inl ⟨rfl, List.isPrefixOf_iff_prefix.2 h1, h2, h3, h4⟩
  · exact .inr ⟨rfl, by rw [Bool.eq_false_iff]; exact fun e => h1 (List.isPrefixOf_iff_prefix.1 e), h3, h4⟩

theorem closes_app {last t : List UInt8} (h1 : last.isEmpty = false) (h2 : [60, 47].isPrefixOf t = true) :
    closesL last t = ((runN (fun b => !leU b) (t.drop 2) == last.length) && (lowL ((t.drop 2).take (runN (fun b => !leU b) (t.drop 2))) == last) && seesB (fun r => enB r) ((t.drop 2).drop (runN (fun b => !leU b) (t.drop 2)))) := by
  have e : ((t.drop 2).take (runN (fun b => !leU b) (t.drop 2))).length = runN (fun b => !leU b) (t.drop 2) := by
    rw [List.length_take]
    have := runN_le (fun b => !leU b) (t.drop 2)
    omega
  unfold closesL
  rw [h1, h2, e, sees_q, q_en]
  rfl
theorem seesE (g : Nat) (eg : ∀ args w, (callFunc g args).run Tryz.prog w = .ok (.enter g args) w) (p : Nat → Bool)
    (b : Nat) (c : Array Value) (T : TypeId) (s : ByteArray) (k : Nat) (hk : k ≤ s.size) (w : World) (hp : PredGrows Tryz.prog g #[] p w) (h : At w b c T s k) :
    Calls Tryz.prog 75 #[.pointer (some ⟨b, 0, none⟩), .func (.func g) #[] #[]] w fun e w' => e = .returned (.bool (seesB p (s.data.toList.drop k))) ∧ Below w.heap.size w w' :=
  curSees g #[] eg p b c T s k hk w hp h

theorem closesC (s : ByteArray) (a : Int) (last : ByteArray) (hs : s.size ≤ 10000000) (w : World) :
    Calls Tryz.prog 53 #[.string s, .int .i64 a, .string last] w fun e w' => e = .returned (.bool (closesL last.data.toList (tlS s a))) ∧ Below w.heap.size w w' := by
  have HC := Lib.hid (cursorAt s a (by unfold maxLen; omega))
  have hk := clip_le s a
  unfold tlS
  generalize clip s a = k at HC hk ⊢
  have HK := Lib.hid hk
  have HS := Lib.hid hs
  clear hk hs
  by_cases h0 : 0 < last.size
  · have hne := strNe h0
    have hne2 : (last.toList == []) = false := by simpa using hne
    have hne3 : last.data.toList.isEmpty = false := by rw [ByteArray.toList_eq] at hne; simpa using hne
    have HNE := Lib.hid hne3
    clear hne3 h0
    obtain ⟨r, hr⟩ : ∃ r, r = closesL last.data.toList (s.data.toList.drop k) := ⟨_, rfl⟩
    rw [← hr]
    have HR := Lib.hid hr
    clear hr
    go_enter Tryz.func53, Tryz.ntmps53
    go_wp2_with fail
    refine (HC.out _).mono ?_
    rintro e w1 ⟨rfl, hb1⟩
    have hat : At (w1.alloc (.cells #[.string s, .int .i64 k] 79)) w1.heap.size #[.string s, .int .i64 k] 79 s k := at_new rfl
    have hB : Below w.heap.size w (w1.alloc (.cells #[.string s, .int .i64 k] 79)) := below_alloc hb1 _
    have hle : w.heap.size ≤ w1.heap.size := hb1.size
    have HT := Lib.hid (tookE w1.heap.size _ 79 s ⟨#[60, 47]⟩ k 2 rfl HK.out (by have := HS.out; omega) _ hat)
    clear hat
    go_wp2_with fail
    refine HT.out.mono ?_
    rintro e w2 hor
    rcases hor with ⟨rfl, hp, hkp, h2, hB2⟩ | ⟨rfl, hp, h2, hB2⟩
    · have hBB : Below w.heap.size w w2 := below_but hB hB2 hle
      have HU := Lib.hid (untilE 111 (fun args w => enters_of Tryz.func111 (by kernel_rfl) rfl args w) (fun r => !letB r) true hi_noLetter (fun b => !leU b) rfl
        w1.heap.size _ 79 s _ hkp (by have := HS.out; omega) _ (grows_noLetter _) h2)
      have hr2 := HR.out
      rw [closes_app HNE.out hp, List.drop_drop] at hr2
      have HR2 := Lib.hid hr2
      clear hp h2 hkp hr2
      go_wp2_with fail
      refine HU.out.mono ?_
      rintro e w3 ⟨n, V, hn, hkn, rfl, hV, hVn, h3, hB3⟩
      have hBB3 := below_but hBB hB3 hle
      have hr2 := HR2.out
      rw [← hn, ← hV, List.drop_drop, size_list] at hr2
      have HR3 := Lib.hid hr2
      clear hn hV hr2
      by_cases hl : V.size = last.size
      · have hd : ((V.size : Int) == (last.size : Int)) = true := by rw [beq_iff_eq]; omega
        have hd2 : (n == last.size) = true := by rw [beq_iff_eq]; omega
        have hr3 := HR3.out
        rw [hd2, Bool.true_and] at hr3
        have HLo := Lib.hid (lowerE V (by have := HS.out; omega) w3)
        have HS3 := Lib.hid (fun w' (hh : At w' w1.heap.size #[.string s, .int .i64 ((k + 2 + n : Nat) : Int)] 79 s (k + 2 + n)) => seesE 113 (fun args w => enters_of Tryz.func113 (by kernel_rfl) rfl args w) (fun r => enB r) w1.heap.size _ 79 s (k + 2 + n) hkn w' (grows_name _) hh)
        have HR4 := Lib.hid hr3
        clear hl hd2 hr3 hVn hkn
        go_wp2_with fail
        refine HLo.out.mono ?_
        rintro e w4 ⟨V4, rfl, hV4, _, hb4⟩
        have h4 := h3.below hb4
        have hr4 := HR4.out
        rw [← hV4] at hr4
        clear hV4
        cases he : (V4.data.toList == last.data.toList) with
        | true =>
          rw [he, Bool.true_and] at hr4
          have hs1 : (V4.toList == last.toList) = true := by rw [ByteArray.toList_eq, ByteArray.toList_eq]; exact he
          have HR5 := Lib.hid hr4
          clear hr4 he
          go_wp2_with fail
          refine (HS3.out _ h4).mono ?_
          rintro e w5 ⟨rfl, hb5⟩
          go_wp2_with fail
          go_ret
          exact ⟨ret_bool HR5.out.symm, below_next (below_next hBB3 hb4) hb5⟩
        | false =>
          rw [he, Bool.false_and] at hr4
          have hs1 : (V4.toList == last.toList) = false := by rw [ByteArray.toList_eq, ByteArray.toList_eq]; exact he
          have HR5 := Lib.hid hr4
          clear hr4 he
          go_wp2_with fail
          go_ret
          exact ⟨ret_bool HR5.out.symm, below_next hBB3 hb4⟩
      · have hd : ((V.size : Int) == (last.size : Int)) = false := by rw [beq_eq_false_iff_ne]; omega
        have hd2 : (n == last.size) = false := by rw [beq_eq_false_iff_ne]; omega
        have hr3 := HR3.out
        rw [hd2, Bool.false_and, Bool.false_and] at hr3
        have HR4 := Lib.hid hr3
        clear hl hd2 hr3 hVn
        go_wp2_with fail
        go_ret
        exact ⟨ret_bool HR4.out.symm, hBB3⟩
    · have hBB : Below w.heap.size w w2 := below_but hB hB2 hle
      have hr2 := HR.out
      unfold closesL at hr2
      rw [hp, Bool.and_false, Bool.false_and, Bool.false_and, Bool.false_and] at hr2
      have HR2 := Lib.hid hr2
      clear hp hr2
      go_wp2_with fail
      go_ret
      exact ⟨ret_bool HR2.out.symm, hBB⟩
  · have he := strE h0
    have he2 : (last.toList == []) = true := by simpa using he
    have hr : closesL last.data.toList (s.data.toList.drop k) = false := by
      unfold closesL
      rw [ByteArray.toList_eq] at he
      rw [he]
      rfl
    rw [hr]
    clear hr h0
    go_enter Tryz.func53, Tryz.ntmps53
    go_wp2_with fail
    refine (HC.out _).mono ?_
    rintro e w1 ⟨rfl, hb1⟩
    go_wp2_with fail
    go_ret
    exact ⟨rfl, by (repeat' (first | (with_reducible exact Below.refl _ _) | (with_reducible assumption) | (with_reducible refine below_alloc ?_ _) | (with_reducible refine Below.drew ?_) | (with_reducible refine _root_.Go.below_drewN ?_ _) | (with_reducible refine Below.setCell ?_ ?_ _) | go_size | (refine below_next ?_ (by assumption))))⟩
end Go.Proofs.YtnfccckodgknjaaGreatDoor
