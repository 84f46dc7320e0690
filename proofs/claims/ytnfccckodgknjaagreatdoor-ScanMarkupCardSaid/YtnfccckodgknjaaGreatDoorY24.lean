/-
  The document's own prefix test.
  The document's own reading of the table: where entries and names end, and their values.
  The document's own searches of the table.
  Names that are read whatever follows: three kernel looks at the table.
-/
import Derived.Test.YtnfccckodgknjaaGreatDoorY21
import Derived.Test.YtnfccckodgknjaaGreatDoorY23
namespace Go.Proofs.YtnfccckodgknjaaGreatDoor
open Go.RowKit Go.Lib
set_option maxHeartbeats 1000000
set_option maxRecDepth 100000

theorem preB_cut (s p : ByteArray) : ((s.extract 0 p.size).toList == p.toList) = p.data.toList.isPrefixOf s.data.toList := by
  rw [Bool.eq_iff_iff, List.isPrefixOf_iff_prefix, List.prefix_iff_eq_take, beq_iff_eq, ByteArray.toList_eq, ByteArray.toList_eq, Lib.extract_data, List.drop_zero, Nat.sub_zero, size_list]
  exact ⟨fun h => h.symm, fun h => h.symm⟩
theorem preB_long {s p : ByteArray} (h : ¬ p.size ≤ s.size) : p.data.toList.isPrefixOf s.data.toList = false := by
  rw [Bool.eq_false_iff]
  intro e
  have := (List.isPrefixOf_iff_prefix.1 e).length_le
  rw [size_list, size_list] at this
  exact h this

theorem rBegins1 (s p : ByteArray) (w : World) :
    Calls Tryz.prog 85 #[.string s, .string p] w fun e w' => e = .returned (.bool (p.data.toList.isPrefixOf s.data.toList)) ∧ w' = w := by
  by_cases hl : p.size ≤ s.size
  · have hI : (p.size : Int) ≤ (s.size : Int) := by omega
    have HE := Lib.hid (preB_cut s p)
    go_enter Tryz.func85, Tryz.ntmps85
    go_wp2
    go_ret
    exact ⟨ret_bool HE.out, rfl⟩
  · have hI : (s.size : Int) < (p.size : Int) := by omega
    have HE := Lib.hid (preB_long hl)
    go_enter Tryz.func85, Tryz.ntmps85
    go_wp2
    go_ret
    exact ⟨ret_bool HE.out.symm, rfl⟩
end Go.Proofs.YtnfccckodgknjaaGreatDoor

namespace Go.Proofs.YtnfccckodgknjaaGreatDoor
open Go.RowKit
set_option maxHeartbeats 2000000
set_option maxRecDepth 100000

def nR (c : UInt8) (l : List UInt8) : Nat := (l.takeWhile fun b => b != c).length
theorem nR_nil (c : UInt8) : nR c [] = 0 := rfl
theorem nR_yes {c b : UInt8} (t : List UInt8) (h : b = c) : nR c (b :: t) = 0 := by simp [nR, h]
theorem nR_no {c b : UInt8} (t : List UInt8) (h : b ≠ c) : nR c (b :: t) = nR c t + 1 := by simp [nR, h]
theorem nR_le (c : UInt8) (l : List UInt8) : nR c l ≤ l.length := (List.takeWhile_sublist _).length_le

theorem rWord (at_ : Nat) (h : at_ ≤ 29726) (w : World) :
    Calls Tryz.prog 237 #[.int .i64 at_] w fun e w' => e = .returned (.int .i64 (at_ + nR 32 (NM.data.toList.drop at_) : Nat)) ∧ w' = w := by
  have hsz := nm_size
  go_enter Tryz.func237, Tryz.ntmps237
  generalize hN : (ByteArray.mk (List.toArray (List.append _ _))) = N
  have HN : NM = N := by rw [← hN]; rfl
  clear hN
  rw [HN] at hsz ⊢
  clear HN
  have HSZ := Lib.hid hsz
  have hsi : (N.size : Int) = 29726 := by omega
  clear hsz
  obtain ⟨R, hR⟩ : ∃ R, R = at_ + nR 32 (N.data.toList.drop at_) := ⟨_, rfl⟩
  rw [← hR]
  have HR := Lib.hid hR
  clear hR
  go_wp2_with fail
  go_loop [0] (fun i => ∃ k : Nat, k ≤ 29726 ∧ i = .int .i64 k ∧ k + nR 32 (N.data.toList.drop k) = R) (fun i => 29726 - (intOf i).toNat)
  case atStart => exact ⟨at_, h, rfl, HR.out.symm⟩
  case round =>
    obtain ⟨k, hk, rfl, hr⟩ := hrel
    have HRR := Lib.hid hr
    clear hr
    by_cases hlt : k < 29726
    · have hlt2 : k < N.size := by rw [HSZ.out]; exact hlt
      have hI : (k : Int) < (N.size : Int) := by omega
      have hI2 : (k : Int) < 29726 := by omega
      have HD := Lib.hid (drop_byte N k hlt2)
      by_cases hb : N[k]'hlt2 = 32
      · have hq : (((N[k]'hlt2).toNat : Int) != 32) = false := by rw [hb]; rfl
        have HF : Hid (k = R) := Lib.hid (by rw [← HRR.out, HD.out, nR_yes _ hb]; rfl)
        clear hb
        go_wp2_with fail
        go_ret
        exact ⟨ret_int (by rw [HF.out]), rfl⟩
      · have hq : (((N[k]'hlt2).toNat : Int) != 32) = true := by
          rw [bne_iff_ne]
          intro e
          exact hb (UInt8.toNat_inj.mp (by show _ = 32; omega))
        have HF : Hid (k + 1 + nR 32 (N.data.toList.drop (k + 1)) = R) := Lib.hid (by rw [← HRR.out, HD.out, nR_no _ hb]; omega)
        clear hb
        go_wp2_with fail
        go_round
        case rel => exact ⟨k + 1, by omega, by go_num, HF.out⟩
        case measure => simp [intOf]; omega
    · have hI : ¬ (k : Int) < (N.size : Int) := by omega
      have hI2 : ¬ (k : Int) < 29726 := by omega
      have HF : Hid (k = R) := Lib.hid (by rw [← HRR.out, drop_end N k (by rw [HSZ.out]; omega)]; rfl)
      go_wp2_with fail
      go_ret
      exact ⟨ret_int (by rw [HF.out]), rfl⟩

theorem rSign (from_ to_ : Nat) (hft : from_ ≤ to_) (ht : to_ ≤ 29726) (w : World) :
    Calls Tryz.prog 238 #[.int .i64 from_, .int .i64 to_] w fun e w' => e = .returned (.int .i64 (from_ + nR 61 (cutAt NM.data.toList from_ to_) : Nat)) ∧ w' = w := by
  have hsz := nm_size
  go_enter Tryz.func238, Tryz.ntmps238
  generalize hN : (ByteArray.mk (List.toArray (List.append _ _))) = N
  have HN : NM = N := by rw [← hN]; rfl
  clear hN
  rw [HN] at hsz ⊢
  clear HN
  have HSZ := Lib.hid hsz
  have hsi : (N.size : Int) = 29726 := by omega
  clear hsz
  obtain ⟨R, hR⟩ : ∃ R, R = from_ + nR 61 (cutAt N.data.toList from_ to_) := ⟨_, rfl⟩
  rw [← hR]
  have HR := Lib.hid hR
  clear hR
  go_wp2_with fail
  go_loop [0] (fun i => ∃ k : Nat, k ≤ to_ ∧ i = .int .i64 k ∧ k + nR 61 (cutAt N.data.toList k to_) = R) (fun i => to_ - (intOf i).toNat)
  case atStart => exact ⟨from_, hft, rfl, HR.out.symm⟩
  case round =>
    obtain ⟨k, hk, rfl, hr⟩ := hrel
    have HRR := Lib.hid hr
    clear hr
    by_cases hlt : k < to_
    · have hlt2 : k < N.size := by rw [HSZ.out]; omega
      have hI : (k : Int) < (N.size : Int) := by omega
      have hI2 : (k : Int) < (to_ : Int) := by omega
      have hI3 : (k : Int) < 29726 := by omega
      have hD : cutAt N.data.toList k to_ = N[k]'hlt2 :: cutAt N.data.toList (k + 1) to_ := by
        unfold cutAt
        have hl2 : k < (N.data.toList.take to_).length := by rw [List.length_take, size_list]; omega
        rw [List.drop_eq_getElem_cons hl2, List.getElem_take]
        rfl
      have HD := Lib.hid hD
      clear hD
      by_cases hb : N[k]'hlt2 = 61
      · have hq : (((N[k]'hlt2).toNat : Int) != 61) = false := by rw [hb]; rfl
        have HF : Hid (k = R) := Lib.hid (by rw [← HRR.out, HD.out, nR_yes _ hb]; rfl)
        clear hb
        go_wp2_with fail
        go_ret
        exact ⟨ret_int (by rw [HF.out]), rfl⟩
      · have hq : (((N[k]'hlt2).toNat : Int) != 61) = true := by
          rw [bne_iff_ne]
          intro e
          exact hb (UInt8.toNat_inj.mp (by show _ = 61; omega))
        have HF : Hid (k + 1 + nR 61 (cutAt N.data.toList (k + 1) to_) = R) := Lib.hid (by rw [← HRR.out, HD.out, nR_no _ hb]; omega)
        clear hb
        go_wp2_with fail
        go_round
        case rel => exact ⟨k + 1, by omega, by go_num, HF.out⟩
        case measure => simp [intOf]; omega
    · have hI : ¬ (k : Int) < (to_ : Int) := by omega
      have HF : Hid (k = R) := Lib.hid (by
        rw [← HRR.out]
        unfold cutAt
        rw [List.drop_eq_nil_of_le (by rw [List.length_take]; omega)]
        rfl)
      go_wp2_with fail
      go_ret
      exact ⟨ret_int (by rw [HF.out]), rfl⟩

theorem own_form2 {w : World} {B e size n : Nat} {v : Value} {xs : List Value} (h : w.ownsRow B e size v n xs) : ∃ a c, v = .slice a n c := by
  rcases h.2 with ⟨rfl, rfl⟩ | ⟨g, cap, cur, rfl, _⟩
  · exact ⟨_, _, rfl⟩
  · exact ⟨_, _, rfl⟩

theorem rValue (s : ByteArray) (hs : s.size ≤ 100) (hok : okVal 0 s.data.toList = true) (w : World) :
    Calls Tryz.prog 239 #[.string s] w fun e w' => e = .returned (.string ⟨((refVal 0 s.data.toList).flatMap encU).toArray⟩) ∧ Below w.heap.size w w' := by
  obtain ⟨i0, hi, hz0, hz1, hz2⟩ := info_parts info_i32
  have hbd := refVal_bd s.data.toList 0 (by omega) hok
  have hln := refVal_len s.data.toList 0
  rw [size_list] at hln
  obtain ⟨R, hR⟩ : ∃ R, R = refVal 0 s.data.toList := ⟨_, rfl⟩
  rw [← hR] at hbd hln ⊢
  have HR := Lib.hid hR
  have HBD := Lib.hid hbd
  clear hR hbd
  go_enter Tryz.func239, Tryz.ntmps239
  go_wp2_with fail
  go_loopw [3, 4, 5] (fun v nv iv wr => ∃ (k n : Nat) (z : Int) (pre : List Int), k ≤ s.size + 1 ∧ iv = .int .i64 k ∧ nv = .int .i64 z ∧ 0 ≤ z ∧ pre.length = n ∧ n ≤ k ∧ (k ≤ s.size → pre ++ refVal z (s.data.toList.drop k) = R ∧ okVal z (s.data.toList.drop k) = true) ∧ (s.size < k → pre = R) ∧ wr.ownsRow w.heap.size 21 1 v n (i32c pre) ∧ Below w.heap.size w wr) (fun _ _ iv _ => s.size + 1 - (intOf iv).toNat)
  case atStart => exact ⟨0, 0, 0, [], Nat.zero_le _, rfl, rfl, by omega, rfl, Nat.le_refl _, fun _ => ⟨HR.out.symm, by simpa using hok⟩, fun h => absurd h (by omega), World.ownsRow_nil _ _ _ _, Below.refl _ _⟩
  case round =>
    obtain ⟨k, n, z, pre, hk, rfl, rfl, hz, hln2, hnk, hrest, hend, hown, hB⟩ := hrel
    have HLN := Lib.hid hln2
    have HREST := Lib.hid hrest
    have HEND := Lib.hid hend
    have hsz := hB.size
    clear hln2 hrest hend
    by_cases hle : k ≤ s.size
    · have hI : (k : Int) ≤ (s.size : Int) := by omega
      obtain ⟨h1, h2⟩ := HREST.out hle
      have hzu := okVal_bd _ z hz h2
      by_cases hlt : k < s.size
      · have hI2 : (k : Int) < (s.size : Int) := by omega
        have hne : ((k : Int) == (s.size : Int)) = false := by rw [beq_eq_false_iff_ne]; omega
        rw [drop_byte s k hlt] at h1 h2
        by_cases hb : s[k]'hlt = 44
        · have hq : (((s[k]'hlt).toNat : Int) == 44) = true := by rw [hb]; rfl
          rw [refVal, if_pos hb] at h1
          rw [okVal, if_pos hb, Bool.and_eq_true] at h2
          have HN : Hid ((pre ++ [z]) ++ refVal 0 (s.data.toList.drop (k + 1)) = R ∧ okVal 0 (s.data.toList.drop (k + 1)) = true) := Lib.hid ⟨by rw [← h1]; simp, h2.2⟩
          clear h1 h2 hb
          go_wp2_with (first | (at_builtin; refine wpList_append_own _ rfl _ _ 101 rfl w.heap.size 21 i0 (.int .i32 0) 1 4 Tryz.underlying101 hi hz0 hz1 hz2 rfl (by decide) _ _ _ rfl (hown.alloc _) ⟨_, 0, none⟩ 1 1 [.int .i32 z] rfl rfl (one_cell _ _ _) (one_oneI _) (by unfold maxLen; omega) (by omega) (by simp; omega) ?_; intro v' w9 hown' hgrow _))
          have hB' := own_grown hB hown rfl hgrow
          have HO : Hid (w9.ownsRow w.heap.size 21 1 v' (n + 1) (i32c (pre ++ [z]))) := Lib.hid (by
            have := hown'
            simpa [i32c] using this)
          clear hown' hgrow
          go_wp2
          go_roundw
          case rel => exact ⟨k + 1, n + 1, 0, pre ++ [z], by omega, by go_num, rfl, by omega, by have := HLN.out; simp; omega, by omega, fun _ => HN.out, fun h => absurd h (by omega), HO.out, hB'⟩
          case measure => simp [intOf]; omega
        · have hq : (((s[k]'hlt).toNat : Int) == 44) = false := by
            rw [beq_eq_false_iff_ne]
            intro e
            exact hb (UInt8.toNat_inj.mp (by show _ = 44; omega))
          rw [refVal, if_neg hb] at h1
          rw [okVal, if_neg hb, Bool.and_eq_true] at h2
          have hx := hexV_bd h2.1
          have HN : Hid (pre ++ refVal (16 * z + hexV (s[k]'hlt).toNat) (s.data.toList.drop (k + 1)) = R ∧ okVal (16 * z + hexV (s[k]'hlt).toNat) (s.data.toList.drop (k + 1)) = true) := Lib.hid ⟨h1, h2.2⟩
          have HH := Lib.hid (rHex ((s[k]'hlt).toNat : Int))
          obtain ⟨hx0, hx1⟩ := hx
          clear h1 h2 hb
          generalize hexV (s[k]'hlt).toNat = x at HN HH hx0 hx1
          go_wp2_with fail
          refine (HH.out _).mono ?_
          rintro e w' ⟨rfl, rfl⟩
          go_wp2_with fail
          go_roundw
          case rel => exact ⟨k + 1, n, 16 * z + x, pre, by omega, by go_num, rfl, by omega, HLN.out, by omega, fun _ => HN.out, fun h => absurd h (by omega), hown, hB⟩
          case measure => simp [intOf]; omega
      · have hks : ((k : Int) == (s.size : Int)) = true := by rw [beq_iff_eq]; omega
        rw [drop_end s k (by omega)] at h1
        have HN : Hid (pre ++ [z] = R) := Lib.hid h1
        clear h1 h2
        go_wp2_with (first | (at_builtin; refine wpList_append_own _ rfl _ _ 101 rfl w.heap.size 21 i0 (.int .i32 0) 1 4 Tryz.underlying101 hi hz0 hz1 hz2 rfl (by decide) _ _ _ rfl (hown.alloc _) ⟨_, 0, none⟩ 1 1 [.int .i32 z] rfl rfl (one_cell _ _ _) (one_oneI _) (by unfold maxLen; omega) (by omega) (by simp; omega) ?_; intro v' w9 hown' hgrow _))
        have hB' := own_grown hB hown rfl hgrow
        have HO : Hid (w9.ownsRow w.heap.size 21 1 v' (n + 1) (i32c (pre ++ [z]))) := Lib.hid (by
          have := hown'
          simpa [i32c] using this)
        clear hown' hgrow
        go_wp2
        go_roundw
        case rel => exact ⟨k + 1, n + 1, 0, pre ++ [z], by omega, by go_num, rfl, by omega, by have := HLN.out; simp; omega, by omega, fun h => absurd h (by omega), fun _ => HN.out, HO.out, hB'⟩
        case measure => simp [intOf]; omega
    · have hI : (s.size : Int) < (k : Int) := by omega
      have hR2 := HEND.out (by omega)
      have hown2 := hown
      rw [← HLN.out, hR2] at hown2
      have HT := Lib.hid (rText _ w.heap.size R HBD.out (by omega) wr hown2)
      obtain ⟨a, c, hac⟩ := own_form2 hown2
      subst hac
      clear hown2 hown hR2
      go_wp2_with fail
      refine HT.out.mono ?_
      rintro e w5 ⟨rfl, hb5⟩
      go_wp2_with fail
      go_ret
      exact ⟨rfl, below_next hB hb5⟩
end Go.Proofs.YtnfccckodgknjaaGreatDoor

namespace Go.Proofs.YtnfccckodgknjaaGreatDoor
open Go.RowKit
set_option maxHeartbeats 2000000
set_option maxRecDepth 100000

/-- The first part, and the others. -/
theorem parts_cons (l : List UInt8) : parts 32 l = l.take (nR 32 l) :: (if nR 32 l = l.length then [] else parts 32 (l.drop (nR 32 l + 1))) := by
  induction l with
  | nil => rfl
  | cons b t ih =>
    by_cases hb : b = 32
    · subst hb
      rw [nR_yes _ rfl, if_neg (by simp)]
      rfl
    · rw [nR_no _ hb, List.take_succ_cons, List.length_cons, List.drop_succ_cons]
      rw [parts, if_neg (by simpa using hb), ih]
      simp
theorem cut_take (l : List UInt8) (a n : Nat) : cutAt l a (a + n) = (l.drop a).take n := by
  unfold cutAt
  rw [List.drop_take, Nat.add_sub_cancel_left]
theorem name_take (e : List UInt8) : e.take (nR 61 e) = nameOf e ∧ (nameOf e).length = nR 61 e := by
  unfold nR nameOf
  exact ⟨(List.prefix_iff_eq_take.1 (List.takeWhile_prefix _)).symm, rfl⟩
theorem codes_drop (e : List UInt8) (h : e.any (fun b => b == 61) = true) : nR 61 e < e.length ∧ e.drop (nR 61 e + 1) = codesOf e := by
  induction e with
  | nil => simp at h
  | cons b t ih =>
    by_cases hb : b = 61
    · subst hb
      rw [nR_yes _ rfl]
      exact ⟨by simp, rfl⟩
    · have hb2 : (b == 61) = false := by simpa using hb
      rw [List.any_cons, hb2, Bool.false_or] at h
      obtain ⟨h1, h2⟩ := ih h
      rw [nR_no _ hb, List.length_cons, List.drop_succ_cons]
      refine ⟨by omega, h2.trans ?_⟩
      have : (b != 61) = true := by simpa using hb
      simp [codesOf, this]

/-- What is left of the table at an offset. -/
structure AtEnt (a : Nat) (rest : List (List UInt8)) : Prop where
  here : (a < 29726 ∧ rest = parts 32 (NM.data.toList.drop a)) ∨ (29726 ≤ a ∧ rest = [])
  mem : ∀ x ∈ rest, x ∈ ENT
theorem atEnt_start : AtEnt 0 ENT := ⟨.inl ⟨by omega, rfl⟩, fun _ h => h⟩
theorem atEnt_end {a : Nat} {rest : List (List UInt8)} (h : AtEnt a rest) (ha : ¬ a < 29726) : rest = [] := by
  rcases h.here with ⟨h1, _⟩ | ⟨_, h1⟩
  · exact absurd h1 ha
  · exact h1
theorem atEnt_step {a : Nat} {rest : List (List UInt8)} (h : AtEnt a rest) (ha : a < 29726) : ∃ (e : List UInt8) (r : List (List UInt8)), rest = e :: r ∧ e ∈ ENT ∧ e.length = nR 32 (NM.data.toList.drop a) ∧
    cutAt NM.data.toList a (a + e.length) = e ∧ a + e.length ≤ 29726 ∧ AtEnt (a + e.length + 1) r := by
  rcases h.here with ⟨_, h1⟩ | ⟨h1, _⟩
  · have hl := nm_length
    have hle := nR_le 32 (NM.data.toList.drop a)
    rw [List.length_drop, hl] at hle
    rw [parts_cons] at h1
    have hlen : ((NM.data.toList.drop a).take (nR 32 (NM.data.toList.drop a))).length = nR 32 (NM.data.toList.drop a) := by
      rw [List.length_take, List.length_drop, hl]; omega
    refine ⟨_, _, h1, h.mem _ (by rw [h1]; simp), hlen, by rw [hlen, cut_take], by rw [hlen]; omega, ?_⟩
    rw [hlen]
    refine ⟨?_, fun x hx => h.mem x (by rw [h1]; exact List.mem_cons_of_mem _ hx)⟩
    by_cases he : nR 32 (NM.data.toList.drop a) = (NM.data.toList.drop a).length
    · rw [if_pos he]
      rw [List.length_drop, hl] at he
      exact .inr ⟨by omega, rfl⟩
    · rw [if_neg he]
      rw [List.length_drop, hl] at he
      refine .inl ⟨?_, by rw [List.drop_drop, Nat.add_assoc]⟩
      rcases Nat.lt_or_ge (a + nR 32 (NM.data.toList.drop a) + 1) 29726 with h2 | h2
      · exact h2
      · exfalso
        have h4 := nm_last_b
        rw [List.getLast?_eq_getElem?, hl] at h4
        have h5 : (NM.data.toList.drop a)[nR 32 (NM.data.toList.drop a)]? = some 32 := by
          have key : ∀ l : List UInt8, nR 32 l ≠ l.length → l[nR 32 l]? = some 32 := by
            intro l
            induction l with
            | nil => intro h; simp [nR_nil] at h
            | cons b t ih =>
              intro h
              by_cases hb : b = 32
              · subst hb; rw [nR_yes _ rfl]; rfl
              · rw [nR_no _ hb] at h ⊢
                rw [List.getElem?_cons_succ]
                exact ih (by simpa using h)
          exact key _ (by rw [List.length_drop, hl]; exact he)
        rw [List.getElem?_drop, show a + nR 32 (NM.data.toList.drop a) = 29726 - 1 by omega] at h5
        rw [h5] at h4
        simp at h4
  · omega

theorem rLongest (s : ByteArray) (w : World) :
    Calls Tryz.prog 210 #[.string s] w fun e w' => ∃ V : ByteArray, e = .returned (.tuple #[.int .i64 (lgL s.data.toList).1, .string V]) ∧ V.data.toList = (lgL s.data.toList).2 ∧ Below w.heap.size w w' := by
  have hsz := nm_size
  have HW := Lib.hid rWord
  have HSG := Lib.hid rSign
  go_enter Tryz.func210, Tryz.ntmps210
  generalize hN : (ByteArray.mk (List.toArray (List.append _ _))) = N
  have HN : NM = N := by rw [← hN]; rfl
  clear hN
  rw [HN] at hsz
  have HSZ := Lib.hid hsz
  have hsi : (N.size : Int) = 29726 := by omega
  have HNN := Lib.hid HN
  clear hsz HN
  go_wp2_with fail
  go_loopw [4, 5, 6] (fun nv vv av wr => ∃ (a n : Nat) (V : ByteArray) (rest : List (List UInt8)), av = .int .i64 a ∧ nv = .int .i64 n ∧ vv = .string V ∧ a ≤ 29727 ∧ n ≤ 29727 ∧ AtEnt a rest ∧ rest.foldl (lgStep s.data.toList) (n, V.data.toList) = lgL s.data.toList ∧ Below w.heap.size w wr) (fun _ _ av _ => 29727 - (intOf av).toNat)
  case atStart => exact ⟨0, 0, ⟨#[]⟩, ENT, rfl, rfl, rfl, by omega, by omega, atEnt_start, rfl, Below.refl _ _⟩
  case round =>
    obtain ⟨a, n, V, rest, rfl, rfl, rfl, ha, hn, hat, hfold, hB⟩ := hrel
    by_cases hlt : a < 29726
    · have hI : (a : Int) < 29726 := by omega
      obtain ⟨e, r, rfl, hmem, hel, hcut, hle, hnext⟩ := atEnt_step hat hlt
      obtain ⟨p1, p2, p3, p4, p5, p6⟩ := ent_parts5 hmem
      obtain ⟨c1, c2⟩ := codes_drop e p6
      obtain ⟨t1, t2⟩ := name_take e
      rw [List.foldl_cons] at hfold
      have HF := Lib.hid hfold
      obtain ⟨T, hT⟩ : ∃ T, T = a + e.length := ⟨_, rfl⟩
      obtain ⟨K, hK⟩ : ∃ K, K = a + (nameOf e).length := ⟨_, rfl⟩
      have hw1 := Lib.hid (HW.out a (by omega))
      rw [← hel, ← hT] at hw1
      have hs1 := Lib.hid (HSG.out a T (by omega) (by omega))
      rw [hT, hcut, ← t2, ← hT, ← hK] at hs1
      have hKT : K < T := by omega
      have haK : a ≤ K := by omega
      have hT6 : T ≤ 29726 := by omega
      have hcutK : (N.extract a K).data.toList = nameOf e := by
        rw [← HNN.out, nm_slice, hK, cut_take, t2]
        have h1 := congrArg (List.take (nR 61 e)) hcut
        rw [cut_take, List.take_take, Nat.min_eq_left (by omega)] at h1
        exact h1.trans t1
      have hcutT : (N.extract (K + 1) T).data.toList = codesOf e := by
        rw [← HNN.out, nm_slice, ← c2]
        have h1 := congrArg (List.drop (nR 61 e + 1)) hcut
        unfold cutAt at h1 ⊢
        rw [List.drop_drop] at h1
        rw [hT, hK, t2, ← h1, Nat.add_assoc]
      have hvs : (N.extract (K + 1) T).size ≤ 100 := by rw [← size_list, hcutT]; exact p5
      have HB2 := Lib.hid (rBegins1 s (N.extract a K))
      rw [hcutK] at HB2
      have HV := Lib.hid (rValue (N.extract (K + 1) T) hvs (by rw [hcutT]; exact p3))
      rw [hcutT, p4] at HV
      have HNX := Lib.hid hnext
      rw [← hT] at HNX
      have i1 : (K : Int) < (T : Int) := by omega
      have i2 : (T : Int) ≤ 29726 := by omega
      have i3 : (a : Int) ≤ (K : Int) := by omega
      have i4 : (K : Int) ≤ 29726 := by omega
      have i5 : (K : Int) + 1 ≤ (T : Int) := by omega
      have HLK : Hid ((nameOf e).length = K - a) := Lib.hid (by omega)
      have hnk : n < (nameOf e).length ↔ (n : Int) < (K : Int) - (a : Int) := by omega
      have HNK := Lib.hid hnk
      clear hfold hel hcut hle hnext p1 p2 p3 p4 p5 p6 c1 c2 t1 t2 hT hK hcutK hcutT hnk hmem
      by_cases hgt : (n : Int) < (K : Int) - (a : Int)
      · cases hp : (nameOf e).isPrefixOf s.data.toList with
        | true =>
          rw [hp] at HB2
          have HS : Hid (r.foldl (lgStep s.data.toList) (K - a, valL (codesOf e)) = lgL s.data.toList) := Lib.hid (by
            rw [← HF.out, lgStep, if_pos ⟨HNK.out.2 hgt, hp⟩, HLK.out])
          clear hp
          go_wp2_with fail
          refine (hw1.out _).mono ?_
          rintro e1 w1 ⟨rfl, rfl⟩
          go_wp2_with fail
          refine (hs1.out _).mono ?_
          rintro e2 w2 ⟨rfl, rfl⟩
          go_wp2_with fail
          refine (HB2.out _).mono ?_
          rintro e2 w2 ⟨rfl, rfl⟩
          go_wp2_with fail
          refine (HV.out _).mono ?_
          rintro e2 w2 ⟨rfl, hb2⟩
          go_wp2_with fail
          go_roundw
          case rel => exact ⟨T + 1, K - a, ⟨(valL (codesOf e)).toArray⟩, r, by go_num, by go_num, rfl, by omega, by omega, HNX.out, HS.out, below_next hB hb2⟩
          case measure => simp [intOf]; omega
        | false =>
          rw [hp] at HB2
          have HS : Hid (r.foldl (lgStep s.data.toList) (n, V.data.toList) = lgL s.data.toList) := Lib.hid (by
            rw [← HF.out, lgStep, if_neg (by simp [hp])])
          clear hp
          go_wp2_with fail
          refine (hw1.out _).mono ?_
          rintro e1 w1 ⟨rfl, rfl⟩
          go_wp2_with fail
          refine (hs1.out _).mono ?_
          rintro e2 w2 ⟨rfl, rfl⟩
          go_wp2_with fail
          refine (HB2.out _).mono ?_
          rintro e2 w2 ⟨rfl, rfl⟩
          go_wp2_with fail
          go_roundw
          case rel => exact ⟨T + 1, n, V, r, by go_num, rfl, rfl, by omega, hn, HNX.out, HS.out, hB⟩
          case measure => simp [intOf]; omega
      · have HS : Hid (r.foldl (lgStep s.data.toList) (n, V.data.toList) = lgL s.data.toList) := Lib.hid (by
          rw [← HF.out, lgStep, if_neg (fun h => hgt (HNK.out.1 h.1))])
        have hd : decide ((n : Int) < (K : Int) - (a : Int)) = false := by simpa using hgt
        clear hgt i1 i2 i3 i4 i5
        go_wp2_with fail
        refine (hw1.out _).mono ?_
        rintro e1 w1 ⟨rfl, rfl⟩
        go_wp2_with fail
        refine (hs1.out _).mono ?_
        rintro e2 w2 ⟨rfl, rfl⟩
        go_wp2_with fail
        go_roundw
        case rel => exact ⟨T + 1, n, V, r, by go_num, rfl, rfl, by omega, hn, HNX.out, HS.out, hB⟩
        case measure => simp [intOf]; omega
    · have hI : ¬ (a : Int) < 29726 := by omega
      rw [atEnt_end hat hlt] at hfold
      have HF : Hid ((n, V.data.toList) = lgL s.data.toList) := Lib.hid hfold
      clear hfold
      go_wp2_with fail
      go_ret2
      exact ⟨V, by rw [← HF.out]; rfl, by rw [← HF.out], hB⟩
end Go.Proofs.YtnfccckodgknjaaGreatDoor

namespace Go.Proofs.YtnfccckodgknjaaGreatDoor
set_option maxRecDepth 100000

end Go.Proofs.YtnfccckodgknjaaGreatDoor
