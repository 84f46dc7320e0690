/-
  The document's own prefix test.
  What the entries of the table are like: one look by the kernel.
  The longest name as a function of the table; what the table's entries are like. No walk in sight.
  The document's own reading of the table: where entries and names end, and their values.
  The document's own searches of the table.
  Whether some name begins with a string.
  The document's own entries, names and prefixes.
  TextNamed: the walk.
-/
import Derived.Test.YtheiehbfbgjgpabDoorKnw
import Derived.Test.YtheiehbfbgjgpabDoorRlo
import Derived.Test.YtheiehbfbgjgpabDoorVal
import Derived.Test.YtheiehbfbgjgpabDoorRdt
import Derived.Test.YtheiehbfbgjgpabDoorKn1
import Derived.IntWalk
namespace Go.Proofs.YtheiehbfbgjgpabDoor
open Go.RowKit Go.Lib
set_option maxHeartbeats 1000000
set_option maxRecDepth 100000

theorem pre_cut (s p : ByteArray) : ((s.extract 0 p.size).toList == p.toList) = p.data.toList.isPrefixOf s.data.toList := by
  rw [Bool.eq_iff_iff, List.isPrefixOf_iff_prefix, List.prefix_iff_eq_take, beq_iff_eq, ByteArray.toList_eq, ByteArray.toList_eq, Lib.extract_data, List.drop_zero, Nat.sub_zero, size_list]
  exact ⟨fun h => h.symm, fun h => h.symm⟩
theorem pre_long {s p : ByteArray} (h : ¬ p.size ≤ s.size) : p.data.toList.isPrefixOf s.data.toList = false := by
  rw [Bool.eq_false_iff]
  intro e
  have := (List.isPrefixOf_iff_prefix.1 e).length_le
  rw [size_list, size_list] at this
  exact h this

theorem rBegins1 (s p : ByteArray) (w : World) :
    Calls Tryd.prog 47 #[.string s, .string p] w fun e w' => e = .returned (.bool (p.data.toList.isPrefixOf s.data.toList)) ∧ w' = w := by
  by_cases hl : p.size ≤ s.size
  · have hI : (p.size : Int) ≤ (s.size : Int) := by omega
    have HE := Lib.hid (pre_cut s p)
    go_enter Tryd.func47, Tryd.ntmps47
    go_wp2
    go_ret
    exact ⟨ret_bool HE.out, rfl⟩
  · have hI : (s.size : Int) < (p.size : Int) := by omega
    have HE := Lib.hid (pre_long hl)
    go_enter Tryd.func47, Tryd.ntmps47
    go_wp2
    go_ret
    exact ⟨ret_bool HE.out.symm, rfl⟩
end Go.Proofs.YtheiehbfbgjgpabDoor

namespace Go.Proofs.YtheiehbfbgjgpabDoor
open Go.RowKit
set_option maxRecDepth 100000

/-- The code points of an entry, as the document's reader makes them. -/
def refVal : Int → List UInt8 → List Int
  | n, [] => [n]
  | n, b :: t => if b = 44 then n :: refVal 0 t else refVal (16 * n + hexV b.toNat) t
def okVal : Int → List UInt8 → Bool
  | n, [] => decide (0 ≤ n) && decide (n ≤ 1114111)
  | n, b :: t => if b = 44 then decide (0 ≤ n) && decide (n ≤ 1114111) && okVal 0 t else hexB b.toNat && okVal (16 * n + hexV b.toNat) t
/-- What an entry of the table is like. -/
def fineEnt (e : List UInt8) : Bool := !(nameOf e).isEmpty && (nameOf e).all (fun b => alnB b.toNat || b == 59) && okVal 0 (codesOf e) && ((refVal 0 (codesOf e)).flatMap encU == valL (codesOf e)) && decide ((codesOf e).length ≤ 100) && e.any (fun b => b == 61)
theorem ent_fine_b : (parts 32 NM.data.toList).all fineEnt = true := by decide +kernel
theorem ent_fine : ∀ e ∈ ENT, fineEnt e = true := List.all_eq_true.1 ent_fine_b
theorem ent_parts5 {e : List UInt8} (he : e ∈ ENT) : (0 < (nameOf e).length) ∧ ((nameOf e).all (fun b => alnB b.toNat || b == 59) = true) ∧ (okVal 0 (codesOf e) = true) ∧ ((refVal 0 (codesOf e)).flatMap encU = valL (codesOf e)) ∧ ((codesOf e).length ≤ 100) ∧ e.any (fun b => b == 61) = true := by
  have hf := ent_fine e he
  unfold fineEnt at hf
  rw [Bool.and_eq_true, Bool.and_eq_true, Bool.and_eq_true, Bool.and_eq_true, Bool.and_eq_true, beq_iff_eq, decide_eq_true_eq] at hf
  obtain ⟨⟨⟨⟨⟨h1, h2⟩, h3⟩, h4⟩, h5⟩, h6⟩ := hf
  refine ⟨?_, h2, h3, h4, h5, h6⟩
  cases hn : nameOf e with
  | nil => rw [hn] at h1; exact absurd h1 (by decide)
  | cons b t => simp
theorem hexV_bd {b : UInt8} (h : hexB b.toNat = true) : 0 ≤ hexV b.toNat ∧ hexV b.toNat ≤ 15 := by
  have := hexV_hex (b.toNat : Int)
  rw [h, decide_eq_true_eq] at this
  refine ⟨this, ?_⟩
  unfold hexV digB
  (repeat' split) <;> simp at * <;> omega
theorem okVal_bd : ∀ (t : List UInt8) (n : Int), 0 ≤ n → okVal n t = true → n ≤ 1114111
  | [], n, _, h => by simp [okVal] at h; exact h.2
  | b :: t, n, h0, h => by
    unfold okVal at h
    by_cases hb : b = 44
    · rw [if_pos hb] at h; simp at h; exact h.1.2
    · rw [if_neg hb, Bool.and_eq_true] at h
      have hx := hexV_bd h.1
      have := okVal_bd t _ (by omega) h.2
      omega
theorem refVal_bd : ∀ (t : List UInt8) (n : Int), 0 ≤ n → okVal n t = true → ∀ r ∈ refVal n t, 0 ≤ r ∧ r ≤ 1114111
  | [], n, _, h => by simp [okVal] at h; simp [refVal]; exact h
  | b :: t, n, h0, h => by
    unfold okVal at h
    unfold refVal
    by_cases hb : b = 44
    · rw [if_pos hb] at h ⊢
      rw [Bool.and_eq_true, Bool.and_eq_true] at h
      intro r hr
      rcases List.mem_cons.1 hr with rfl | hr
      · simpa using h.1
      · exact refVal_bd t 0 (by omega) h.2 r hr
    · rw [if_neg hb] at h ⊢
      rw [Bool.and_eq_true] at h
      have hx := hexV_bd h.1
      exact refVal_bd t _ (by omega) h.2
theorem refVal_len : ∀ (t : List UInt8) (n : Int), (refVal n t).length ≤ t.length + 1
  | [], n => by simp [refVal]
  | b :: t, n => by
    unfold refVal
    split
    · have := refVal_len t 0; simp; omega
    · have := refVal_len t (16 * n + hexV b.toNat); simp; omega
end Go.Proofs.YtheiehbfbgjgpabDoor

namespace Go.Proofs.YtheiehbfbgjgpabDoor
open Go.RowKit
set_option maxRecDepth 100000

def lgStep (s : List UInt8) (a : Nat × List UInt8) (e : List UInt8) : Nat × List UInt8 := if a.1 < (nameOf e).length ∧ (nameOf e).isPrefixOf s = true then ((nameOf e).length, valL (codesOf e)) else a
def lgT (T : List (List UInt8)) (s : List UInt8) : Nat × List UInt8 := T.foldl (lgStep s) (0, [])
noncomputable def lgL (s : List UInt8) : Nat × List UInt8 := lgT ENT s

theorem lgStep_spec (s : List UInt8) : ∀ (T : List (List UInt8)) (a : Nat × List UInt8),
    (T.foldl (lgStep s) a = a ∧ ∀ e ∈ T, nameOf e <+: s → (nameOf e).length ≤ a.1) ∨
    ∃ e ∈ T, nameOf e <+: s ∧ T.foldl (lgStep s) a = ((nameOf e).length, valL (codesOf e)) ∧ a.1 < (nameOf e).length ∧ ∀ e' ∈ T, nameOf e' <+: s → (nameOf e').length ≤ (nameOf e).length
  | [], a => .inl ⟨rfl, by simp⟩
  | e :: T, a => by
    rw [List.foldl_cons]
    by_cases h : a.1 < (nameOf e).length ∧ (nameOf e).isPrefixOf s = true
    · have hs : lgStep s a e = ((nameOf e).length, valL (codesOf e)) := if_pos h
      have hp : nameOf e <+: s := List.isPrefixOf_iff_prefix.1 h.2
      rw [hs]
      rcases lgStep_spec s T ((nameOf e).length, valL (codesOf e)) with ⟨h1, h2⟩ | ⟨e1, he1, h1, h2, h3, h4⟩
      · refine .inr ⟨e, by simp, hp, h1, h.1, ?_⟩
        intro e' he' hp'
        rcases List.mem_cons.1 he' with rfl | he'
        · exact Nat.le_refl _
        · exact h2 e' he' hp'
      · refine .inr ⟨e1, by simp [he1], h1, h2, by have := h.1; simp at h3; omega, ?_⟩
        intro e' he' hp'
        rcases List.mem_cons.1 he' with rfl | he'
        · simp at h3; omega
        · exact h4 e' he' hp'
    · have hs : lgStep s a e = a := if_neg h
      have hn : nameOf e <+: s → (nameOf e).length ≤ a.1 := by
        intro hp
        rcases Nat.lt_or_ge a.1 (nameOf e).length with h' | h'
        · exact absurd ⟨h', List.isPrefixOf_iff_prefix.2 hp⟩ h
        · exact h'
      rw [hs]
      rcases lgStep_spec s T a with ⟨h1, h2⟩ | ⟨e1, he1, h1, h2, h3, h4⟩
      · refine .inl ⟨h1, ?_⟩
        intro e' he' hp'
        rcases List.mem_cons.1 he' with rfl | he'
        · exact hn hp'
        · exact h2 e' he' hp'
      · refine .inr ⟨e1, by simp [he1], h1, h2, h3, ?_⟩
        intro e' he' hp'
        rcases List.mem_cons.1 he' with rfl | he'
        · have := hn hp'; omega
        · exact h4 e' he' hp'

theorem pair_uniq {α : Type} {R : α → α → Prop} : ∀ {l : List α}, l.Pairwise R → ∀ a ∈ l, ∀ b ∈ l, a = b ∨ R a b ∨ R b a
  | [], _, a, ha, _, _ => by simp at ha
  | x :: l, h, a, ha, b, hb => by
    rw [List.pairwise_cons] at h
    rcases List.mem_cons.1 ha with e | ha'
    · rcases List.mem_cons.1 hb with e2 | hb'
      · exact .inl (e.trans e2.symm)
      · exact .inr (.inl (e ▸ h.1 b hb'))
    · rcases List.mem_cons.1 hb with e2 | hb'
      · exact .inr (.inr (e2 ▸ h.1 a ha'))
      · exact pair_uniq h.2 a ha' b hb'
theorem ent_name {a b : List UInt8} (ha : a ∈ ENT) (hb : b ∈ ENT) (h : nameOf a = nameOf b) : a = b := by
  rcases pair_uniq ent_sorted a ha b hb with e | e | e
  · exact e
  · rw [h, ltB_irrefl] at e; exact absurd e (by decide)
  · rw [h, ltB_irrefl] at e; exact absurd e (by decide)
theorem ent_ne {e : List UInt8} (he : e ∈ ENT) : 0 < (nameOf e).length := (ent_parts5 he).1

theorem lg_uniq (T : List (List UInt8)) (hu : ∀ a ∈ T, ∀ b ∈ T, nameOf a = nameOf b → a = b) (hne : ∀ a ∈ T, 0 < (nameOf a).length) {s : List UInt8} {n : Int} {v : List UInt8}
    (h : (n = 0 ∧ v = [] ∧ ∀ e ∈ T, ¬ nameOf e <+: s) ∨ ∃ e ∈ T, nameOf e <+: s ∧ n = (nameOf e).length ∧ v = valL (codesOf e) ∧ ∀ e' ∈ T, nameOf e' <+: s → (nameOf e').length ≤ (nameOf e).length) :
    n = ((lgT T s).1 : Nat) ∧ v = (lgT T s).2 := by
  unfold lgT
  rcases lgStep_spec s T (0, []) with ⟨h1, h2⟩ | ⟨e1, he1, h1, h2, h3, h4⟩
  · rw [h1]
    rcases h with ⟨g1, g2, g3⟩ | ⟨e, he, g1, g2, g3, g4⟩
    · exact ⟨g1, g2⟩
    · have h5 : (nameOf e).length ≤ 0 := h2 e he g1
      have h6 := hne e he
      omega
  · rw [h2]
    rcases h with ⟨g1, g2, g3⟩ | ⟨e, he, g1, g2, g3, g4⟩
    · exact absurd h1 (g3 e1 he1)
    · have l1 := h4 e he g1
      have l2 := g4 e1 he1 h1
      have hlen : (nameOf e).length = (nameOf e1).length := by omega
      have a1 := List.prefix_iff_eq_take.1 g1
      have a2 := List.prefix_iff_eq_take.1 h1
      rw [hlen] at a1
      have := hu e he e1 he1 (a1.trans a2.symm)
      subst this
      exact ⟨g2, g3⟩
theorem lgP_lgL {s : List UInt8} {n : Int} {V : ByteArray} (h : LgP s n V) : n = ((lgL s).1 : Nat) ∧ V.data.toList = (lgL s).2 := by
  refine lg_uniq ENT (fun a ha b hb => ent_name ha hb) (fun a ha => ent_ne ha) ?_
  rcases h with ⟨g1, g2, g3⟩ | ⟨e, he, g1, g2, g3, g4⟩
  · exact .inl ⟨g1, by rw [g2], g3⟩
  · exact .inr ⟨e, he, g1, g2, g3, g4⟩
end Go.Proofs.YtheiehbfbgjgpabDoor

namespace Go.Proofs.YtheiehbfbgjgpabDoor
open Go.RowKit
set_option maxHeartbeats 2000000
set_option maxRecDepth 100000

def nR (c : UInt8) (l : List UInt8) : Nat := (l.takeWhile fun b => b != c).length
theorem nR_nil (c : UInt8) : nR c [] = 0 := rfl
theorem nR_yes {c b : UInt8} (t : List UInt8) (h : b = c) : nR c (b :: t) = 0 := by simp [nR, h]
theorem nR_no {c b : UInt8} (t : List UInt8) (h : b ≠ c) : nR c (b :: t) = nR c t + 1 := by simp [nR, h]
theorem nR_le (c : UInt8) (l : List UInt8) : nR c l ≤ l.length := (List.takeWhile_sublist _).length_le

theorem rWord (at_ : Nat) (h : at_ ≤ 29726) (w : World) :
    Calls Tryd.prog 45 #[.int .i64 at_] w fun e w' => e = .returned (.int .i64 (at_ + nR 32 (NM.data.toList.drop at_) : Nat)) ∧ w' = w := by
  have hsz := nm_size
  go_enter Tryd.func45, Tryd.ntmps45
  generalize hN : (ByteArray.mk (List.toArray (List.append _ _))) = N
  have HN : NM = N := by rw [← hN]; rfl
  clear hN
  rw [HN] at hsz ⊢
  clear HN
  have HSZ := Lib.hid hsz
  have hsi : (N.size : Int) = 29726 := by omega
  clear hsz
  obtain ⟨R, hR⟩ : ∃ R, R = at_ + nR 32 (N.data.toList.drop at_) := ⟨_, rfl⟩
  rw [← hR]
  have HR := Lib.hid hR
  clear hR
  go_wp2_with fail
  go_loop [0] (fun i => ∃ k : Nat, k ≤ 29726 ∧ i = .int .i64 k ∧ k + nR 32 (N.data.toList.drop k) = R) (fun i => 29726 - (intOf i).toNat)
  case atStart => exact ⟨at_, h, rfl, HR.out.symm⟩
  case round =>
    obtain ⟨k, hk, rfl, hr⟩ := hrel
    have HRR := Lib.hid hr
    clear hr
    by_cases hlt : k < 29726
    · have hlt2 : k < N.size := by rw [HSZ.out]; exact hlt
      have hI : (k : Int) < (N.size : Int) := by omega
      have hI2 : (k : Int) < 29726 := by omega
      have HD := Lib.hid (drop_byte N k hlt2)
      by_cases hb : N[k]'hlt2 = 32
      · have hq : (((N[k]'hlt2).toNat : Int) != 32) = false := by rw [hb]; rfl
        have HF : Hid (k = R) := Lib.hid (by rw [← HRR.out, HD.out, nR_yes _ hb]; rfl)
        clear hb
        go_wp2_with fail
        go_ret
        exact ⟨ret_int (by rw [HF.out]), rfl⟩
      · have hq : (((N[k]'hlt2).toNat : Int) != 32) = true := by
          rw [bne_iff_ne]
          intro e
          exact hb (UInt8.toNat_inj.mp (by show _ = 32; omega))
        have HF : Hid (k + 1 + nR 32 (N.data.toList.drop (k + 1)) = R) := Lib.hid (by rw [← HRR.out, HD.out, nR_no _ hb]; omega)
        clear hb
        go_wp2_with fail
        go_round
        case rel => exact ⟨k + 1, by omega, by go_num, HF.out⟩
        case measure => simp [intOf]; omega
    · have hI : ¬ (k : Int) < (N.size : Int) := by omega
      have hI2 : ¬ (k : Int) < 29726 := by omega
      have HF : Hid (k = R) := Lib.hid (by rw [← HRR.out, drop_end N k (by rw [HSZ.out]; omega)]; rfl)
      go_wp2_with fail
      go_ret
      exact ⟨ret_int (by rw [HF.out]), rfl⟩

theorem rSign (from_ to_ : Nat) (hft : from_ ≤ to_) (ht : to_ ≤ 29726) (w : World) :
    Calls Tryd.prog 46 #[.int .i64 from_, .int .i64 to_] w fun e w' => e = .returned (.int .i64 (from_ + nR 61 (cutAt NM.data.toList from_ to_) : Nat)) ∧ w' = w := by
  have hsz := nm_size
  go_enter Tryd.func46, Tryd.ntmps46
  generalize hN : (ByteArray.mk (List.toArray (List.append _ _))) = N
  have HN : NM = N := by rw [← hN]; rfl
  clear hN
  rw [HN] at hsz ⊢
  clear HN
  have HSZ := Lib.hid hsz
  have hsi : (N.size : Int) = 29726 := by omega
  clear hsz
  obtain ⟨R, hR⟩ : ∃ R, R = from_ + nR 61 (cutAt N.data.toList from_ to_) := ⟨_, rfl⟩
  rw [← hR]
  have HR := Lib.hid hR
  clear hR
  go_wp2_with fail
  go_loop [0] (fun i => ∃ k : Nat, k ≤ to_ ∧ i = .int .i64 k ∧ k + nR 61 (cutAt N.data.toList k to_) = R) (fun i => to_ - (intOf i).toNat)
  case atStart => exact ⟨from_, hft, rfl, HR.out.symm⟩
  case round =>
    obtain ⟨k, hk, rfl, hr⟩ := hrel
    have HRR := Lib.hid hr
    clear hr
    by_cases hlt : k < to_
    · have hlt2 : k < N.size := by rw [HSZ.out]; omega
      have hI : (k : Int) < (N.size : Int) := by omega
      have hI2 : (k : Int) < (to_ : Int) := by omega
      have hI3 : (k : Int) < 29726 := by omega
      have hD : cutAt N.data.toList k to_ = N[k]'hlt2 :: cutAt N.data.toList (k + 1) to_ := by
        unfold cutAt
        have hl2 : k < (N.data.toList.take to_).length := by rw [List.length_take, size_list]; omega
        rw [List.drop_eq_getElem_cons hl2, List.getElem_take]
        rfl
      have HD := Lib.hid hD
      clear hD
      by_cases hb : N[k]'hlt2 = 61
      · have hq : (((N[k]'hlt2).toNat : Int) != 61) = false := by rw [hb]; rfl
        have HF : Hid (k = R) := Lib.hid (by rw [← HRR.out, HD.out, nR_yes _ hb]; rfl)
        clear hb
        go_wp2_with fail
        go_ret
        exact ⟨ret_int (by rw [HF.out]), rfl⟩
      · have hq : (((N[k]'hlt2).toNat : Int) != 61) = true := by
          rw [bne_iff_ne]
          intro e
          exact hb (UInt8.toNat_inj.mp (by show _ = 61; omega))
        have HF : Hid (k + 1 + nR 61 (cutAt N.data.toList (k + 1) to_) = R) := Lib.hid (by rw [← HRR.out, HD.out, nR_no _ hb]; omega)
        clear hb
        go_wp2_with fail
        go_round
        case rel => exact ⟨k + 1, by omega, by go_num, HF.out⟩
        case measure => simp [intOf]; omega
    · have hI : ¬ (k : Int) < (to_ : Int) := by omega
      have HF : Hid (k = R) := Lib.hid (by
        rw [← HRR.out]
        unfold cutAt
        rw [List.drop_eq_nil_of_le (by rw [List.length_take]; omega)]
        rfl)
      go_wp2_with fail
      go_ret
      exact ⟨ret_int (by rw [HF.out]), rfl⟩

theorem own_form2 {w : World} {B e size n : Nat} {v : Value} {xs : List Value} (h : w.ownsRow B e size v n xs) : ∃ a c, v = .slice a n c := by
  rcases h.2 with ⟨rfl, rfl⟩ | ⟨g, cap, cur, rfl, _⟩
  · exact ⟨_, _, rfl⟩
  · exact ⟨_, _, rfl⟩

theorem rValue (s : ByteArray) (hs : s.size ≤ 100) (hok : okVal 0 s.data.toList = true) (w : World) :
    Calls Tryd.prog 48 #[.string s] w fun e w' => e = .returned (.string ⟨((refVal 0 s.data.toList).flatMap encU).toArray⟩) ∧ Below w.heap.size w w' := by
  obtain ⟨i0, hi, hz0, hz1, hz2⟩ := info_parts info_i32
  have hbd := refVal_bd s.data.toList 0 (by omega) hok
  have hln := refVal_len s.data.toList 0
  rw [size_list] at hln
  obtain ⟨R, hR⟩ : ∃ R, R = refVal 0 s.data.toList := ⟨_, rfl⟩
  rw [← hR] at hbd hln ⊢
  have HR := Lib.hid hR
  have HBD := Lib.hid hbd
  clear hR hbd
  go_enter Tryd.func48, Tryd.ntmps48
  go_wp2_with fail
  go_loopw [3, 4, 5] (fun v nv iv wr => ∃ (k n : Nat) (z : Int) (pre : List Int), k ≤ s.size + 1 ∧ iv = .int .i64 k ∧ nv = .int .i64 z ∧ 0 ≤ z ∧ pre.length = n ∧ n ≤ k ∧ (k ≤ s.size → pre ++ refVal z (s.data.toList.drop k) = R ∧ okVal z (s.data.toList.drop k) = true) ∧ (s.size < k → pre = R) ∧ wr.ownsRow w.heap.size 21 1 v n (i32c pre) ∧ Below w.heap.size w wr) (fun _ _ iv _ => s.size + 1 - (intOf iv).toNat)
  case atStart => exact ⟨0, 0, 0, [], Nat.zero_le _, rfl, rfl, by omega, rfl, Nat.le_refl _, fun _ => ⟨HR.out.symm, by simpa using hok⟩, fun h => absurd h (by omega), World.ownsRow_nil _ _ _ _, Below.refl _ _⟩
  case round =>
    obtain ⟨k, n, z, pre, hk, rfl, rfl, hz, hln2, hnk, hrest, hend, hown, hB⟩ := hrel
    have HLN := Lib.hid hln2
    have HREST := Lib.hid hrest
    have HEND := Lib.hid hend
    have hsz := hB.size
    clear hln2 hrest hend
    by_cases hle : k ≤ s.size
    · have hI : (k : Int) ≤ (s.size : Int) := by omega
      obtain ⟨h1, h2⟩ := HREST.out hle
      have hzu := okVal_bd _ z hz h2
      by_cases hlt : k < s.size
      · have hI2 : (k : Int) < (s.size : Int) := by omega
        have hne : ((k : Int) == (s.size : Int)) = false := by rw [beq_eq_false_iff_ne]; omega
        rw [drop_byte s k hlt] at h1 h2
        by_cases hb : s[k]'hlt = 44
        · have hq : (((s[k]'hlt).toNat : Int) == 44) = true := by rw [hb]; rfl
          rw [refVal, if_pos hb] at h1
          rw [okVal, if_pos hb, Bool.and_eq_true] at h2
          have HN : Hid ((pre ++ [z]) ++ refVal 0 (s.data.toList.drop (k + 1)) = R ∧ okVal 0 (s.data.toList.drop (k + 1)) = true) := Lib.hid ⟨by rw [← h1]; simp, h2.2⟩
          clear h1 h2 hb
          go_wp2_with (first | (at_builtin; refine wpList_append_own _ rfl _ _ 94 rfl w.heap.size 21 i0 (.int .i32 0) 1 4 Tryd.underlying94 hi hz0 hz1 hz2 rfl (by decide) _ _ _ rfl (hown.alloc _) ⟨_, 0, none⟩ 1 1 [.int .i32 z] rfl rfl (one_cell _ _ _) (one_oneI _) (by unfold maxLen; omega) (by omega) (by simp; omega) ?_; intro v' w9 hown' hgrow _))
          have hB' := own_grown hB hown rfl hgrow
          have HO : Hid (w9.ownsRow w.heap.size 21 1 v' (n + 1) (i32c (pre ++ [z]))) := Lib.hid (by
            have := hown'
            simpa [i32c] using this)
          clear hown' hgrow
          go_wp2
          go_roundw
          case rel => exact ⟨k + 1, n + 1, 0, pre ++ [z], by omega, by go_num, rfl, by omega, by have := HLN.out; simp; omega, by omega, fun _ => HN.out, fun h => absurd h (by omega), HO.out, hB'⟩
          case measure => simp [intOf]; omega
        · have hq : (((s[k]'hlt).toNat : Int) == 44) = false := by
            rw [beq_eq_false_iff_ne]
            intro e
            exact hb (UInt8.toNat_inj.mp (by show _ = 44; omega))
          rw [refVal, if_neg hb] at h1
          rw [okVal, if_neg hb, Bool.and_eq_true] at h2
          have hx := hexV_bd h2.1
          have HN : Hid (pre ++ refVal (16 * z + hexV (s[k]'hlt).toNat) (s.data.toList.drop (k + 1)) = R ∧ okVal (16 * z + hexV (s[k]'hlt).toNat) (s.data.toList.drop (k + 1)) = true) := Lib.hid ⟨h1, h2.2⟩
          have HH := Lib.hid (rHex ((s[k]'hlt).toNat : Int))
          obtain ⟨hx0, hx1⟩ := hx
          clear h1 h2 hb
          generalize hexV (s[k]'hlt).toNat = x at HN HH hx0 hx1
          go_wp2_with fail
          refine (HH.out _).mono ?_
          rintro e w' ⟨rfl, rfl⟩
          go_wp2_with fail
          go_roundw
          case rel => exact ⟨k + 1, n, 16 * z + x, pre, by omega, by go_num, rfl, by omega, HLN.out, by omega, fun _ => HN.out, fun h => absurd h (by omega), hown, hB⟩
          case measure => simp [intOf]; omega
      · have hks : ((k : Int) == (s.size : Int)) = true := by rw [beq_iff_eq]; omega
        rw [drop_end s k (by omega)] at h1
        have HN : Hid (pre ++ [z] = R) := Lib.hid h1
        clear h1 h2
        go_wp2_with (first | (at_builtin; refine wpList_append_own _ rfl _ _ 94 rfl w.heap.size 21 i0 (.int .i32 0) 1 4 Tryd.underlying94 hi hz0 hz1 hz2 rfl (by decide) _ _ _ rfl (hown.alloc _) ⟨_, 0, none⟩ 1 1 [.int .i32 z] rfl rfl (one_cell _ _ _) (one_oneI _) (by unfold maxLen; omega) (by omega) (by simp; omega) ?_; intro v' w9 hown' hgrow _))
        have hB' := own_grown hB hown rfl hgrow
        have HO : Hid (w9.ownsRow w.heap.size 21 1 v' (n + 1) (i32c (pre ++ [z]))) := Lib.hid (by
          have := hown'
          simpa [i32c] using this)
        clear hown' hgrow
        go_wp2
        go_roundw
        case rel => exact ⟨k + 1, n + 1, 0, pre ++ [z], by omega, by go_num, rfl, by omega, by have := HLN.out; simp; omega, by omega, fun h => absurd h (by omega), fun _ => HN.out, HO.out, hB'⟩
        case measure => simp [intOf]; omega
    · have hI : (s.size : Int) < (k : Int) := by omega
      have hR2 := HEND.out (by omega)
      have hown2 := hown
      rw [← HLN.out, hR2] at hown2
      have HT := Lib.hid (rText _ w.heap.size R HBD.out (by omega) wr hown2)
      obtain ⟨a, c, hac⟩ := own_form2 hown2
      subst hac
      clear hown2 hown hR2
      go_wp2_with fail
      refine HT.out.mono ?_
      rintro e w5 ⟨rfl, hb5⟩
      go_wp2_with fail
      go_ret
      exact ⟨rfl, below_next hB hb5⟩
end Go.Proofs.YtheiehbfbgjgpabDoor

namespace Go.Proofs.YtheiehbfbgjgpabDoor
open Go.RowKit
set_option maxHeartbeats 2000000
set_option maxRecDepth 100000

/-- The first part, and the others. -/
theorem parts_cons (l : List UInt8) : parts 32 l = l.take (nR 32 l) :: (if nR 32 l = l.length then [] else parts 32 (l.drop (nR 32 l + 1))) := by
  induction l with
  | nil => rfl
  | cons b t ih =>
    by_cases hb : b = 32
    · subst hb
      rw [nR_yes _ rfl, if_neg (by simp)]
      rfl
    · rw [nR_no _ hb, List.take_succ_cons, List.length_cons, List.drop_succ_cons]
      rw [parts, if_neg (by simpa using hb), ih]
      simp
theorem cut_take (l : List UInt8) (a n : Nat) : cutAt l a (a + n) = (l.drop a).take n := by
  unfold cutAt
  rw [List.drop_take, Nat.add_sub_cancel_left]
theorem name_take (e : List UInt8) : e.take (nR 61 e) = nameOf e ∧ (nameOf e).length = nR 61 e := by
  unfold nR nameOf
  exact ⟨(List.prefix_iff_eq_take.1 (List.takeWhile_prefix _)).symm, rfl⟩
theorem codes_drop (e : List UInt8) (h : e.any (fun b => b == 61) = true) : nR 61 e < e.length ∧ e.drop (nR 61 e + 1) = codesOf e := by
  induction e with
  | nil => simp at h
  | cons b t ih =>
    by_cases hb : b = 61
    · subst hb
      rw [nR_yes _ rfl]
      exact ⟨by simp, rfl⟩
    · have hb2 : (b == 61) = false := by simpa using hb
      rw [List.any_cons, hb2, Bool.false_or] at h
      obtain ⟨h1, h2⟩ := ih h
      rw [nR_no _ hb, List.length_cons, List.drop_succ_cons]
      refine ⟨by omega, h2.trans ?_⟩
      have : (b != 61) = true := by simpa using hb
      simp [codesOf, this]

/-- What is left of the table at an offset. -/
structure AtEnt (a : Nat) (rest : List (List UInt8)) : Prop where
  here : (a < 29726 ∧ rest = parts 32 (NM.data.toList.drop a)) ∨ (29726 ≤ a ∧ rest = [])
  mem : ∀ x ∈ rest, x ∈ ENT
theorem atEnt_start : AtEnt 0 ENT := ⟨.inl ⟨by omega, rfl⟩, fun _ h => h⟩
theorem atEnt_end {a : Nat} {rest : List (List UInt8)} (h : AtEnt a rest) (ha : ¬ a < 29726) : rest = [] := by
  rcases h.here with ⟨h1, _⟩ | ⟨_, h1⟩
  · exact absurd h1 ha
  · exact h1
theorem atEnt_step {a : Nat} {rest : List (List UInt8)} (h : AtEnt a rest) (ha : a < 29726) : ∃ (e : List UInt8) (r : List (List UInt8)), rest = e :: r ∧ e ∈ ENT ∧ e.length = nR 32 (NM.data.toList.drop a) ∧
    cutAt NM.data.toList a (a + e.length) = e ∧ a + e.length ≤ 29726 ∧ AtEnt (a + e.length + 1) r := by
  rcases h.here with ⟨_, h1⟩ | ⟨h1, _⟩
  · have hl := nm_length
    have hle := nR_le 32 (NM.data.toList.drop a)
    rw [List.length_drop, hl] at hle
    rw [parts_cons] at h1
    have hlen : ((NM.data.toList.drop a).take (nR 32 (NM.data.toList.drop a))).length = nR 32 (NM.data.toList.drop a) := by
      rw [List.length_take, List.length_drop, hl]; omega
    refine ⟨_, _, h1, h.mem _ (by rw [h1]; simp), hlen, by rw [hlen, cut_take], by rw [hlen]; omega, ?_⟩
    rw [hlen]
    refine ⟨?_, fun x hx => h.mem x (by rw [h1]; exact List.mem_cons_of_mem _ hx)⟩
    by_cases he : nR 32 (NM.data.toList.drop a) = (NM.data.toList.drop a).length
    · rw [if_pos he]
      rw [List.length_drop, hl] at he
      exact .inr ⟨by omega, rfl⟩
    · rw [if_neg he]
      rw [List.length_drop, hl] at he
      refine .inl ⟨?_, by rw [List.drop_drop, Nat.add_assoc]⟩
      rcases Nat.lt_or_ge (a + nR 32 (NM.data.toList.drop a) + 1) 29726 with h2 | h2
      · exact h2
      · exfalso
        have h4 := nm_last_b
        rw [List.getLast?_eq_getElem?, hl] at h4
        have h5 : (NM.data.toList.drop a)[nR 32 (NM.data.toList.drop a)]? = some 32 := by
          have key : ∀ l : List UInt8, nR 32 l ≠ l.length → l[nR 32 l]? = some 32 := by
            intro l
            induction l with
            | nil => intro h; simp [nR_nil] at h
            | cons b t ih =>
              intro h
              by_cases hb : b = 32
              · subst hb; rw [nR_yes _ rfl]; rfl
              · rw [nR_no _ hb] at h ⊢
                rw [List.getElem?_cons_succ]
                exact ih (by simpa using h)
          exact key _ (by rw [List.length_drop, hl]; exact he)
        rw [List.getElem?_drop, show a + nR 32 (NM.data.toList.drop a) = 29726 - 1 by omega] at h5
        rw [h5] at h4
        simp at h4
  · omega

theorem rLongest (s : ByteArray) (w : World) :
    Calls Tryd.prog 19 #[.string s] w fun e w' => ∃ V : ByteArray, e = .returned (.tuple #[.int .i64 (lgL s.data.toList).1, .string V]) ∧ V.data.toList = (lgL s.data.toList).2 ∧ Below w.heap.size w w' := by
  have hsz := nm_size
  have HW := Lib.hid rWord
  have HSG := Lib.hid rSign
  go_enter Tryd.func19, Tryd.ntmps19
  generalize hN : (ByteArray.mk (List.toArray (List.append _ _))) = N
  have HN : NM = N := by rw [← hN]; rfl
  clear hN
  rw [HN] at hsz
  have HSZ := Lib.hid hsz
  have hsi : (N.size : Int) = 29726 := by omega
  have HNN := Lib.hid HN
  clear hsz HN
  go_wp2_with fail
  go_loopw [4, 5, 6] (fun nv vv av wr => ∃ (a n : Nat) (V : ByteArray) (rest : List (List UInt8)), av = .int .i64 a ∧ nv = .int .i64 n ∧ vv = .string V ∧ a ≤ 29727 ∧ n ≤ 29727 ∧ AtEnt a rest ∧ rest.foldl (lgStep s.data.toList) (n, V.data.toList) = lgL s.data.toList ∧ Below w.heap.size w wr) (fun _ _ av _ => 29727 - (intOf av).toNat)
  case atStart => exact ⟨0, 0, ⟨#[]⟩, ENT, rfl, rfl, rfl, by omega, by omega, atEnt_start, rfl, Below.refl _ _⟩
  case round =>
    obtain ⟨a, n, V, rest, rfl, rfl, rfl, ha, hn, hat, hfold, hB⟩ := hrel
    by_cases hlt : a < 29726
    · have hI : (a : Int) < 29726 := by omega
      obtain ⟨e, r, rfl, hmem, hel, hcut, hle, hnext⟩ := atEnt_step hat hlt
      obtain ⟨p1, p2, p3, p4, p5, p6⟩ := ent_parts5 hmem
      obtain ⟨c1, c2⟩ := codes_drop e p6
      obtain ⟨t1, t2⟩ := name_take e
      rw [List.foldl_cons] at hfold
      have HF := Lib.hid hfold
      obtain ⟨T, hT⟩ : ∃ T, T = a + e.length := ⟨_, rfl⟩
      obtain ⟨K, hK⟩ : ∃ K, K = a + (nameOf e).length := ⟨_, rfl⟩
      have hw1 := Lib.hid (HW.out a (by omega))
      rw [← hel, ← hT] at hw1
      have hs1 := Lib.hid (HSG.out a T (by omega) (by omega))
      rw [hT, hcut, ← t2, ← hT, ← hK] at hs1
      have hKT : K < T := by omega
      have haK : a ≤ K := by omega
      have hT6 : T ≤ 29726 := by omega
      have hcutK : (N.extract a K).data.toList = nameOf e := by
        rw [← HNN.out, nm_slice, hK, cut_take, t2]
        have h1 := congrArg (List.take (nR 61 e)) hcut
        rw [cut_take, List.take_take, Nat.min_eq_left (by omega)] at h1
        exact h1.trans t1
      have hcutT : (N.extract (K + 1) T).data.toList = codesOf e := by
        rw [← HNN.out, nm_slice, ← c2]
        have h1 := congrArg (List.drop (nR 61 e + 1)) hcut
        unfold cutAt at h1 ⊢
        rw [List.drop_drop] at h1
        rw [hT, hK, t2, ← h1, Nat.add_assoc]
      have hvs : (N.extract (K + 1) T).size ≤ 100 := by rw [← size_list, hcutT]; exact p5
      have HB2 := Lib.hid (rBegins1 s (N.extract a K))
      rw [hcutK] at HB2
      have HV := Lib.hid (rValue (N.extract (K + 1) T) hvs (by rw [hcutT]; exact p3))
      rw [hcutT, p4] at HV
      have HNX := Lib.hid hnext
      rw [← hT] at HNX
      have i1 : (K : Int) < (T : Int) := by omega
      have i2 : (T : Int) ≤ 29726 := by omega
      have i3 : (a : Int) ≤ (K : Int) := by omega
      have i4 : (K : Int) ≤ 29726 := by omega
      have i5 : (K : Int) + 1 ≤ (T : Int) := by omega
      have HLK : Hid ((nameOf e).length = K - a) := Lib.hid (by omega)
      have hnk : n < (nameOf e).length ↔ (n : Int) < (K : Int) - (a : Int) := by omega
      have HNK := Lib.hid hnk
      clear hfold hel hcut hle hnext p1 p2 p3 p4 p5 p6 c1 c2 t1 t2 hT hK hcutK hcutT hnk hmem
      by_cases hgt : (n : Int) < (K : Int) - (a : Int)
      · cases hp : (nameOf e).isPrefixOf s.data.toList with
        | true =>
          rw [hp] at HB2
          have HS : Hid (r.foldl (lgStep s.data.toList) (K - a, valL (codesOf e)) = lgL s.data.toList) := Lib.hid (by
            rw [← HF.out, lgStep, if_pos ⟨HNK.out.2 hgt, hp⟩, HLK.out])
          clear hp
          go_wp2_with fail
          refine (hw1.out _).mono ?_
          rintro e1 w1 ⟨rfl, rfl⟩
          go_wp2_with fail
          refine (hs1.out _).mono ?_
          rintro e2 w2 ⟨rfl, rfl⟩
          go_wp2_with fail
          refine (HB2.out _).mono ?_
          rintro e2 w2 ⟨rfl, rfl⟩
          go_wp2_with fail
          refine (HV.out _).mono ?_
          rintro e2 w2 ⟨rfl, hb2⟩
          go_wp2_with fail
          go_roundw
          case rel => exact ⟨T + 1, K - a, ⟨(valL (codesOf e)).toArray⟩, r, by go_num, by go_num, rfl, by omega, by omega, HNX.out, HS.out, below_next hB hb2⟩
          case measure => simp [intOf]; omega
        | false =>
          rw [hp] at HB2
          have HS : Hid (r.foldl (lgStep s.data.toList) (n, V.data.toList) = lgL s.data.toList) := Lib.hid (by
            rw [← HF.out, lgStep, if_neg (by simp [hp])])
          clear hp
          go_wp2_with fail
          refine (hw1.out _).mono ?_
          rintro e1 w1 ⟨rfl, rfl⟩
          go_wp2_with fail
          refine (hs1.out _).mono ?_
          rintro e2 w2 ⟨rfl, rfl⟩
          go_wp2_with fail
          refine (HB2.out _).mono ?_
          rintro e2 w2 ⟨rfl, rfl⟩
          go_wp2_with fail
          go_roundw
          case rel => exact ⟨T + 1, n, V, r, by go_num, rfl, rfl, by omega, hn, HNX.out, HS.out, hB⟩
          case measure => simp [intOf]; omega
      · have HS : Hid (r.foldl (lgStep s.data.toList) (n, V.data.toList) = lgL s.data.toList) := Lib.hid (by
          rw [← HF.out, lgStep, if_neg (fun h => hgt (HNK.out.1 h.1))])
        have hd : decide ((n : Int) < (K : Int) - (a : Int)) = false := by simpa using hgt
        clear hgt i1 i2 i3 i4 i5
        go_wp2_with fail
        refine (hw1.out _).mono ?_
        rintro e1 w1 ⟨rfl, rfl⟩
        go_wp2_with fail
        refine (hs1.out _).mono ?_
        rintro e2 w2 ⟨rfl, rfl⟩
        go_wp2_with fail
        go_roundw
        case rel => exact ⟨T + 1, n, V, r, by go_num, rfl, rfl, by omega, hn, HNX.out, HS.out, hB⟩
        case measure => simp [intOf]; omega
    · have hI : ¬ (a : Int) < 29726 := by omega
      rw [atEnt_end hat hlt] at hfold
      have HF : Hid ((n, V.data.toList) = lgL s.data.toList) := Lib.hid hfold
      clear hfold
      go_wp2_with fail
      go_ret2
      exact ⟨V, by rw [← HF.out]; rfl, by rw [← HF.out], hB⟩
end Go.Proofs.YtheiehbfbgjgpabDoor

namespace Go.Proofs.YtheiehbfbgjgpabDoor
open Go.RowKit
set_option maxHeartbeats 2000000
set_option maxRecDepth 100000

noncomputable def hpB (s : List UInt8) : Bool := ENT.any fun e => s.isPrefixOf (nameOf e)

/-- Between a string and one that begins with it, all begin with it. -/
theorem mid_prefix : ∀ (s x r : List UInt8), ltB s x = true → ltB x (s ++ r) = true → s <+: x
  | [], x, r, _, _ => List.nil_prefix
  | a :: s, [], r, h, _ => by simp [ltB, Op.bytesLess] at h
  | a :: s, b :: x, r, h, h2 => by
    rw [List.cons_append] at h2
    by_cases hab : a = b
    · subst hab
      have e1 := ltB_app [a] s x
      have e2 := ltB_app [a] x (s ++ r)
      simp only [List.singleton_append] at e1 e2
      rw [e1] at h
      rw [e2] at h2
      exact (List.cons_prefix_cons).2 ⟨rfl, mid_prefix s x r h h2⟩
    · exfalso
      rw [ltB_head hab] at h
      rw [ltB_head (fun e => hab e.symm)] at h2
      simp only [decide_eq_true_eq, UInt8.lt_iff_toNat_lt] at h h2
      omega
/-- Greater, and not beginning with it. -/
def Gt (s x : List UInt8) : Prop := ltB s x = true ∧ ¬ s <+: x
theorem gt_up {s x y : List UInt8} (h : Gt s x) (h2 : ltB x y = true) : Gt s y := by
  refine ⟨ltB_trans _ _ _ h.1 h2, ?_⟩
  rintro ⟨r, rfl⟩
  exact h.2 (mid_prefix s x r h.1 h2)
theorem lt_not {s x : List UInt8} (h : ltB x s = true) : ¬ s <+: x := by
  intro hp
  have := leB_prefix hp
  rw [(leB_not s x).2 h] at this
  exact absurd this (by decide)

structure HalvP (s : List UInt8) (lo hi : Nat) : Prop where
  below : ∀ S E, IsEnt NM.data.toList S E → S < lo → ltB (nameOf (cutAt NM.data.toList S E)) s = true
  above : ∀ S E, IsEnt NM.data.toList S E → hi ≤ S → Gt s (nameOf (cutAt NM.data.toList S E))
theorem halvP_start (s : List UInt8) : HalvP s 0 29726 := by
  refine ⟨fun S E _ h => absurd h (by omega), fun S E h hS => ?_⟩
  exfalso
  have h1 := h.le
  have h2 := h.len
  rw [nm_length] at h2
  have h3 := h.left.resolve_left (by omega)
  have h4 := nm_last_b
  rw [List.getLast?_eq_getElem?, nm_length] at h4
  rw [show S - 1 = 29726 - 1 by omega] at h3
  rw [h3] at h4
  simp at h4
theorem halvP_up {s : List UInt8} {lo hi : Nat} (h : HalvP s lo hi) {S E : Nat} (he : IsEnt NM.data.toList S E) (hlt : ltB (nameOf (cutAt NM.data.toList S E)) s = true) : HalvP s (E + 1) hi := by
  refine ⟨fun S' E' h' hS => ?_, h.above⟩
  rcases Nat.lt_trichotomy S S' with h1 | rfl | h1
  · have := ent_next he h' h1; omega
  · rw [← ent_uniq he h']; exact hlt
  · exact ltB_trans _ _ _ (ent_order ent_sorted h' he h1) hlt
theorem halvP_down {s : List UInt8} {lo hi : Nat} (h : HalvP s lo hi) {S E : Nat} (he : IsEnt NM.data.toList S E) (hgt : Gt s (nameOf (cutAt NM.data.toList S E))) : HalvP s lo S := by
  refine ⟨h.below, fun S' E' h' hS => ?_⟩
  rcases Nat.lt_or_eq_of_le hS with h1 | rfl
  · exact gt_up hgt (ent_order ent_sorted he h' h1)
  · rw [← ent_uniq he h']; exact hgt
theorem halvP_end {s : List UInt8} {lo hi : Nat} (h : HalvP s lo hi) (hl : hi ≤ lo) : hpB s = false := by
  unfold hpB
  rw [List.any_eq_false]
  intro e he
  rw [List.isPrefixOf_iff_prefix]
  obtain ⟨S, E, hI, rfl⟩ := ent_of _ _ (Nat.le_refl _) e he
  rcases Nat.lt_or_ge S lo with h1 | h1
  · exact lt_not (h.below S E hI h1)
  · exact (h.above S E hI (by omega)).2
theorem halvP_yes {s : List UInt8} {S E : Nat} (he : IsEnt NM.data.toList S E) (hp : s <+: nameOf (cutAt NM.data.toList S E)) : hpB s = true := by
  unfold hpB
  rw [List.any_eq_true]
  exact ⟨_, ent_mem he, List.isPrefixOf_iff_prefix.2 hp⟩

/-- The three ways out of the comparison. -/
theorem cmp_short {A s : List UInt8} {i : Nat} (h : A.take i = s.take i) (hA : i = A.length) (hs : i < s.length) : ltB A s = true := by
  rw [hA, List.take_length] at h
  have e : s = A ++ s.drop A.length := by conv => lhs; rw [← List.take_append_drop A.length s, ← h]
  rw [e]
  have h1 := ltB_app A [] (s.drop A.length)
  rw [List.append_nil] at h1
  rw [h1]
  cases hd : s.drop A.length with
  | nil => have := congrArg List.length hd; rw [List.length_drop] at this; simp at this; omega
  | cons b t => exact ltB_nil b t
theorem cmp_less {A s : List UInt8} {i : Nat} (h : A.take i = s.take i) (hA : i < A.length) (hs : i < s.length) (hlt : A[i] < s[i]) : ltB A s = true := by
  rw [split_at A i hA, split_at s i hs, h, ltB_app, ltB_head (fun e => by rw [e, UInt8.lt_iff_toNat_lt] at hlt; omega)]
  exact decide_eq_true hlt
theorem cmp_more {A s : List UInt8} {i : Nat} (h : A.take i = s.take i) (hA : i < A.length) (hs : i < s.length) (hlt : s[i] < A[i]) : Gt s A := by
  refine ⟨cmp_less h.symm hs hA hlt, ?_⟩
  rintro ⟨r, hr⟩
  have h1 : A[i] = s[i] := by
    have h2 : A[i]? = s[i]? := by rw [← hr, List.getElem?_append_left hs]
    rw [List.getElem?_eq_getElem hA, List.getElem?_eq_getElem hs] at h2
    exact Option.some.inj h2
  rw [h1, UInt8.lt_iff_toNat_lt] at hlt
  omega
theorem cmp_all {A s : List UInt8} (h : A.take s.length = s.take s.length) : s <+: A := by
  rw [List.take_length] at h
  rw [← h]
  exact List.take_prefix _ _

theorem field_name (A B : ByteArray) (w : World) : (Instr.field 63 (.agg #[.string A, .string B]) 0).run Tryd.prog w = .ok (.string A) w := by kernel_rfl

theorem hasPrefixT (s : ByteArray) (hs : s.size ≤ 100000) (m : Int) (w : World) (hm : w.cell? ⟨1, 0, none⟩ = some (.int .i64 m)) :
    Calls Tryd.prog 20 #[.string s] w fun e w' => e = .returned (.bool (hpB s.data.toList)) ∧ Below w.heap.size w w' := by
  have hsz := nm_size
  go_enter Tryd.func20, Tryd.ntmps20
  generalize hN : (ByteArray.mk (List.toArray (List.append _ _))) = N
  have HN : NM = N := by rw [← hN]; rfl
  clear hN
  rw [HN] at hsz
  have HQ := Lib.hid HN
  clear HN
  have HSZ := Lib.hid hsz
  clear hsz
  have HM := Lib.hid hm
  clear hm
  obtain ⟨R, hR⟩ : ∃ R, R = hpB s.data.toList := ⟨_, rfl⟩
  rw [← hR]
  have HR := Lib.hid hR
  clear hR
  go_wp2_with fail
  go_step3
  go_wp2
  go_step3
  go_wp2
  go_loopw [3, 4] (fun l h wr => ∃ lo hi : Nat, l = .int .i64 lo ∧ h = .int .i64 hi ∧ lo ≤ 29727 ∧ hi ≤ 29726 ∧ HalvP s.data.toList lo hi ∧ Below w.heap.size w wr) (fun l h _ => ((intOf h).toNat - (intOf l).toNat))
  case atStart => exact ⟨0, 29726, rfl, rfl, by omega, by omega, halvP_start _, Below.refl _ _⟩
  case round =>
    obtain ⟨lo, hi, rfl, rfl, hlo, hhi, hH, hB⟩ := hrel
    have HH := Lib.hid hH
    clear hH
    by_cases hlt : lo < hi
    · have hmid : ((lo : Int) + hi) / 2 = (((lo + hi) / 2 : Nat) : Int) := by omega
      have HMID := Lib.hid hmid
      clear hmid
      go_wp2_with fail
      rw [HMID.out]
      refine (entryAround _ (by rw [nm_size]; omega) _).mono ?_
      rintro e w' ⟨S, E, rfl, hI, hS, hE, rfl⟩
      have hlenE : E ≤ 29726 := by have := hI.len; rwa [nm_length] at this
      have hSE := hI.le
      have h1 : (S : Int) ≤ (N.size : Int) := by have := HSZ.out; omega
      have h2 : (E : Int) ≤ (N.size : Int) := by have := HSZ.out; omega
      have h3 : (S : Int) ≤ (E : Int) := by omega
      have HI := Lib.hid hI
      have HC := Lib.hid (parse (N.extract S E) (by rw [ByteArray.size_extract]; omega) m wr (carry HM.out hB))
      clear hI
      go_wp2_with fail
      refine HC.out.mono ?_
      rintro e w1 ⟨A, B, rfl, hA, hB', hb⟩
      have HA := Lib.hid (hA.trans (by rw [← HQ.out, nm_slice]))
      have hBw := below_next hB hb
      clear hA hB' hb hB HC
      have hfd := field_name A B w1
      go_wp2_with fail
      clear hfd
      have hA0 : A.data.toList.length = A.size := size_list A
      have hs0 : s.data.toList.length = s.size := size_list s
      have HA0 := Lib.hid hA0
      have HS0 := Lib.hid hs0
      clear hA0 hs0 h1 h2 h3
      go_loopw [3, 4, 27] (fun l4 h4 v wq => ∃ i : Nat, l4 = .int .i64 lo ∧ h4 = .int .i64 hi ∧ v = .int .i64 i ∧ i ≤ s.size ∧ i ≤ A.size ∧ A.data.toList.take i = s.data.toList.take i ∧ Below w.heap.size w wq) (fun _ _ v _ => s.size - (intOf v).toNat)
      case atStart => exact ⟨0, rfl, rfl, rfl, Nat.zero_le _, Nat.zero_le _, by simp, hBw⟩
      case round =>
        obtain ⟨i, rfl, rfl, rfl, hi1, hi2, ht, hBq⟩ := hrel
        have HT := Lib.hid ht
        clear ht hBw
        by_cases hil : i < s.size
        · have hI1 : (i : Int) < (s.size : Int) := by omega
          have hi4 : i < s.data.toList.length := by rw [HS0.out]; exact hil
          by_cases hiA : i < A.size
          · have hI2 : (i : Int) < (A.size : Int) := by omega
            have hqe : ((i : Int) == (A.size : Int)) = false := by rw [beq_eq_false_iff_ne]; omega
            have hi3 : i < A.data.toList.length := by rw [HA0.out]; exact hiA
            rcases Nat.lt_trichotomy (A[i]'hiA).toNat (s[i]'hil).toNat with hc | hc | hc
            · have hd : decide ((A[i]'hiA).toNat < (s[i]'hil).toNat) = true := by simpa using hc
              have HX := Lib.hid (halvP_up HH.out HI.out (by
                rw [← HA.out]
                exact cmp_less HT.out hi3 hi4 (UInt8.lt_iff_toNat_lt.2 hc)))
              clear hc hi3 hi4
              go_wp2_with fail
              go_quiet (fail)
              go_wp2_with fail
              refine ⟨⟨E + 1, hi, by go_num, rfl, by omega, hhi, HX.out, by (repeat' (first | (with_reducible exact Below.refl _ _) | (with_reducible assumption) | (with_reducible refine below_alloc ?_ _) | (with_reducible refine Below.drew ?_) | (with_reducible refine below_drewN ?_ _) | (with_reducible refine Below.setCell ?_ ?_ _) | go_size | (refine below_next ?_ (by assumption))))⟩, by simp [intOf]; omega⟩
            · have hd : decide ((A[i]'hiA).toNat < (s[i]'hil).toNat) = false := by simp; omega
              have hd2 : decide ((s[i]'hil).toNat < (A[i]'hiA).toNat) = false := by simp; omega
              have HE := Lib.hid (show A[i]'hiA = s[i]'hil from UInt8.toNat_inj.mp hc)
              clear hc hi3 hi4
              go_wp2_with fail
              go_quiet (fail)
              go_wp2_with fail
              go_quiet (fail)
              go_wp2_with fail
              go_roundw
              case rel =>
                refine ⟨i + 1, rfl, rfl, by go_num, by omega, by omega, ?_, by (repeat' (first | (with_reducible exact Below.refl _ _) | (with_reducible assumption) | (with_reducible refine below_alloc ?_ _) | (with_reducible refine Below.drew ?_) | (with_reducible refine below_drewN ?_ _) | (with_reducible refine Below.setCell ?_ ?_ _) | go_size | (refine below_next ?_ (by assumption))))⟩
                rw [take_snoc A i hiA, take_snoc s i hil, HT.out, HE.out]
              case measure => simp [intOf]; omega
            · have hd : decide ((A[i]'hiA).toNat < (s[i]'hil).toNat) = false := by simp; omega
              have hd2 : decide ((s[i]'hil).toNat < (A[i]'hiA).toNat) = true := by simpa using hc
              have HX := Lib.hid (halvP_down HH.out HI.out (by
                rw [← HA.out]
                exact cmp_more HT.out hi3 hi4 (UInt8.lt_iff_toNat_lt.2 hc)))
              clear hc hi3 hi4
              go_wp2_with fail
              go_quiet (fail)
              go_wp2_with fail
              go_quiet (fail)
              go_wp2_with fail
              refine ⟨⟨lo, S, rfl, rfl, hlo, by omega, HX.out, by (repeat' (first | (with_reducible exact Below.refl _ _) | (with_reducible assumption) | (with_reducible refine below_alloc ?_ _) | (with_reducible refine Below.drew ?_) | (with_reducible refine below_drewN ?_ _) | (with_reducible refine Below.setCell ?_ ?_ _) | go_size | (refine below_next ?_ (by assumption))))⟩, by simp [intOf]; omega⟩
          · have hqe : ((i : Int) == (A.size : Int)) = true := by rw [beq_iff_eq]; omega
            have HX := Lib.hid (halvP_up HH.out HI.out (by
              rw [← HA.out]
              exact cmp_short HT.out (by rw [HA0.out]; omega) hi4))
            clear hi4
            go_wp2_with fail
            go_quiet (fail)
            go_wp2_with fail
            refine ⟨⟨E + 1, hi, by go_num, rfl, by omega, hhi, HX.out, by (repeat' (first | (with_reducible exact Below.refl _ _) | (with_reducible assumption) | (with_reducible refine below_alloc ?_ _) | (with_reducible refine Below.drew ?_) | (with_reducible refine below_drewN ?_ _) | (with_reducible refine Below.setCell ?_ ?_ _) | go_size | (refine below_next ?_ (by assumption))))⟩, by simp [intOf]; omega⟩
        · have hI1 : ¬ (i : Int) < (s.size : Int) := by omega
          have HX : Hid (true = R) := Lib.hid (by
            rw [HR.out]
            refine (halvP_yes HI.out ?_).symm
            rw [← HA.out]
            refine cmp_all ?_
            rw [HS0.out, show s.size = i by omega]
            exact HT.out)
          go_wp2_with fail
          go_ret
          exact ⟨ret_bool HX.out, hBq⟩
    · have HX : Hid (false = R) := Lib.hid (by rw [HR.out]; exact (halvP_end HH.out (by omega)).symm)
      go_wp2_with fail
      rw [Exit.noGoto_ret]
      go_ret
      exact ⟨ret_bool HX.out, hB⟩
end Go.Proofs.YtheiehbfbgjgpabDoor

namespace Go.Proofs.YtheiehbfbgjgpabDoor
open Go.RowKit
set_option maxHeartbeats 2000000
set_option maxRecDepth 100000

/-- What an entry's numbers are. -/
theorem ent_cuts {a : Nat} {e : List UInt8} (he : e ∈ ENT) (hcut : cutAt NM.data.toList a (a + e.length) = e) :
    (NM.extract a (a + (nameOf e).length)).data.toList = nameOf e ∧ (NM.extract (a + (nameOf e).length + 1) (a + e.length)).data.toList = codesOf e ∧ (nameOf e).length < e.length := by
  obtain ⟨p1, p2, p3, p4, p5, p6⟩ := ent_parts5 he
  obtain ⟨c1, c2⟩ := codes_drop e p6
  obtain ⟨t1, t2⟩ := name_take e
  refine ⟨?_, ?_, by omega⟩
  · rw [nm_slice, cut_take, t2]
    have h1 := congrArg (List.take (nR 61 e)) hcut
    rw [cut_take, List.take_take, Nat.min_eq_left (by omega)] at h1
    exact h1.trans t1
  · rw [nm_slice, ← c2]
    have h1 := congrArg (List.drop (nR 61 e + 1)) hcut
    unfold cutAt at h1 ⊢
    rw [List.drop_drop] at h1
    rw [t2, ← h1, Nat.add_assoc]

theorem rEntry (a : Nat) (E : List UInt8) (he : E ∈ ENT) (hel : E.length = nR 32 (NM.data.toList.drop a)) (hcut : cutAt NM.data.toList a (a + E.length) = E) (hle : a + E.length ≤ 29726) (w : World) :
    Calls Tryd.prog 23 #[.int .i64 a] w fun x w' => ∃ A : ByteArray, x = .returned (.tuple #[.string A, .string ⟨(valL (codesOf E)).toArray⟩, .int .i64 (a + E.length + 1 : Nat)]) ∧ A.data.toList = nameOf E ∧ Below w.heap.size w w' := by
  have hsz := nm_size
  have HW := Lib.hid (rWord a (by omega))
  have HSG := Lib.hid (rSign a (a + E.length) (by omega) hle)
  obtain ⟨p1, p2, p3, p4, p5, p6⟩ := ent_parts5 he
  obtain ⟨t1, t2⟩ := name_take E
  obtain ⟨q1, q2, q3⟩ := ent_cuts he hcut
  rw [hcut, ← t2] at HSG
  rw [← hel] at HW
  obtain ⟨T, hT⟩ : ∃ T, T = a + E.length := ⟨_, rfl⟩
  obtain ⟨K, hK⟩ : ∃ K, K = a + (nameOf E).length := ⟨_, rfl⟩
  rw [← hT] at HW HSG q2 ⊢
  rw [← hK] at HSG q1 q2
  have hvs : (NM.extract (K + 1) T).size ≤ 100 := by rw [← size_list, q2]; exact p5
  have HV := Lib.hid (rValue (NM.extract (K + 1) T) hvs (by rw [q2]; exact p3))
  rw [q2, p4] at HV
  have hKT : K < T := by omega
  have haK : a ≤ K := by omega
  have i1 : (K : Int) + 1 ≤ (T : Int) := by omega
  have i2 : (T : Int) ≤ 29726 := by omega
  have i3 : (a : Int) ≤ (K : Int) := by omega
  have i4 : (K : Int) ≤ 29726 := by omega
  have HQ1 := Lib.hid q1
  clear p1 p2 p3 p4 p5 p6 t1 t2 q1 q2 q3 hT hK hvs hel hcut hle
  go_enter Tryd.func23, Tryd.ntmps23
  generalize hN : (ByteArray.mk (List.toArray (List.append _ _))) = N
  have HN : NM = N := by rw [← hN]; rfl
  clear hN
  rw [HN] at hsz HV HQ1
  have HSZ := Lib.hid hsz
  have hsi : (N.size : Int) = 29726 := by omega
  clear hsz HN
  go_wp2_with fail
  refine (HW.out _).mono ?_
  rintro e1 w1 ⟨rfl, rfl⟩
  go_wp2_with fail
  refine (HSG.out _).mono ?_
  rintro e2 w2 ⟨rfl, rfl⟩
  have s1 : IntKind.i64.wrap ((K : Int) + 1) = (K : Int) + 1 := IntWalk.i64_in _ (by omega)
  have s2 : (0 : Int) ≤ (K : Int) + 1 := by omega
  have s3 : ((K : Int) + 1).toNat = K + 1 := by omega
  have s4 : IntKind.i64.wrap ((T : Int) + 1) = (T : Int) + 1 := IntWalk.i64_in _ (by omega)
  have s5 : (0 : Int) ≤ (K : Int) := by omega
  have s6 : (0 : Int) ≤ (T : Int) := by omega
  have s7 : (0 : Int) ≤ (a : Int) := by omega
  have s8 : (T : Int) ≤ (N.size : Int) := by omega
  have s9 : (K : Int) ≤ (N.size : Int) := by omega
  have HV2 : Hid (∀ w', Below w2.heap.size w2 w' → Calls Tryd.prog 48 #[.string (N.extract (K + 1) T)] w' fun e w3 => e = .returned (.string ⟨(valL (codesOf E)).toArray⟩) ∧ Below w2.heap.size w2 w3) := Lib.hid (fun w' h => (HV.out w').mono fun e w3 ⟨h1, h2⟩ => ⟨h1, below_next h h2⟩)
  go_wp2_with fail
  go_region_held3 (fun w' => Below w2.heap.size w2 w') (first | exact Below.refl _ _ | exact Below.drew (Below.refl _ _) | assumption | go_keep)
    (first | (go_at_call 48; refine (HV2.out _ (by first | assumption | exact Below.refl _ _ | exact Below.drew (Below.refl _ _) | exact Below.drew (by assumption))).mono ?_; rintro e w3 ⟨rfl, hb3⟩))
  all_goals
    clear s1 s2 s3 s4 s5 s6 s7 s8 s9
    go_wp2_with fail
    go_ret3
    exact ⟨N.extract a K, by first | rfl | (congr 3), HQ1.out, by first | assumption | exact Below.drew (by assumption)⟩

theorem rNamed (s : ByteArray) (w : World) :
    Calls Tryd.prog 17 #[.string s] w fun e w' => ∃ (V : ByteArray) (c : Int), e = .returned (.tuple #[.string V, .int .i64 c]) ∧ NmP (namedR s.data.toList) V c ∧ Below w.heap.size w w' := by
  obtain ⟨R, hR⟩ : ∃ R, R = namedR s.data.toList := ⟨_, rfl⟩
  have hR2 := hR
  unfold namedR at hR2
  rw [← hR]
  have HR := Lib.hid hR2
  clear hR hR2
  go_enter Tryd.func17, Tryd.ntmps17
  go_wp2_with fail
  go_loopw [4] (fun av wr => ∃ (a : Nat) (rest : List (List UInt8)), av = .int .i64 a ∧ a ≤ 29727 ∧ AtEnt a rest ∧ (rest.find? (fun e => nameOf e == s.data.toList)).map (fun e => valL (codesOf e)) = R ∧ Below w.heap.size w wr) (fun av _ => 29727 - (intOf av).toNat)
  case atStart => exact ⟨0, ENT, rfl, by omega, atEnt_start, HR.out.symm, Below.refl _ _⟩
  case round =>
    obtain ⟨a, rest, rfl, ha, hat, hf, hB⟩ := hrel
    by_cases hlt : a < 29726
    · have hI : (a : Int) < 29726 := by omega
      obtain ⟨e, r, rfl, hmem, hel, hcut, hle, hnext⟩ := atEnt_step hat hlt
      have HE := Lib.hid (rEntry a e hmem hel hcut hle wr)
      rw [List.find?_cons] at hf
      have HF := Lib.hid hf
      have HNX := Lib.hid hnext
      obtain ⟨T, hT⟩ : ∃ T, T = a + e.length + 1 := ⟨_, rfl⟩
      have hT1 : a < T := by omega
      have hT2 : T ≤ 29727 := by omega
      rw [← hT] at HE HNX
      clear hf hnext hel hcut hle hmem hT
      go_wp2_with fail
      refine HE.out.mono ?_
      rintro x w1 ⟨A, rfl, hA, hb1⟩
      have HA := Lib.hid hA
      clear hA
      cases hq : (nameOf e == s.data.toList) with
      | true =>
        have hq2 : (A.toList == s.toList) = true := by rw [ByteArray.toList_eq, ByteArray.toList_eq, HA.out]; exact hq
        have HV : Hid (some (valL (codesOf e)) = R) := Lib.hid (by have := HF.out; rw [hq] at this; exact this)
        clear hq
        go_wp2_with fail
        go_ret2
        exact ⟨_, _, rfl, .inl ⟨HV.out.symm, rfl⟩, below_next hB hb1⟩
      | false =>
        have hq2 : (A.toList == s.toList) = false := by rw [ByteArray.toList_eq, ByteArray.toList_eq, HA.out]; exact hq
        have HV : Hid ((r.find? (fun e => nameOf e == s.data.toList)).map (fun e => valL (codesOf e)) = R) := Lib.hid (by have := HF.out; rw [hq] at this; exact this)
        clear hq
        go_wp2_with fail
        go_roundw
        case rel => exact ⟨T, r, rfl, hT2, HNX.out, HV.out, below_next hB hb1⟩
        case measure => simp [intOf]; omega
    · have hI : ¬ (a : Int) < 29726 := by omega
      rw [atEnt_end hat hlt] at hf
      have HF : Hid (none = R) := Lib.hid hf
      clear hf
      go_wp2_with fail
      go_ret2
      exact ⟨_, _, rfl, .inr ⟨HF.out.symm, rfl, rfl⟩, hB⟩

theorem rHasPrefix (s : ByteArray) (w : World) :
    Calls Tryd.prog 21 #[.string s] w fun e w' => e = .returned (.bool (hpB s.data.toList)) ∧ w' = w := by
  have hsz := nm_size
  have HW := Lib.hid rWord
  have HSG := Lib.hid rSign
  obtain ⟨R, hR⟩ : ∃ R, R = hpB s.data.toList := ⟨_, rfl⟩
  have hR2 := hR
  unfold hpB at hR2
  rw [← hR]
  have HR := Lib.hid hR2
  clear hR hR2
  go_enter Tryd.func21, Tryd.ntmps21
  generalize hN : (ByteArray.mk (List.toArray (List.append _ _))) = N
  have HN : NM = N := by rw [← hN]; rfl
  clear hN
  rw [HN] at hsz
  have HNN := Lib.hid HN
  have HSZ := Lib.hid hsz
  have hsi : (N.size : Int) = 29726 := by omega
  clear hsz HN
  go_wp2_with fail
  go_loop [3] (fun av => ∃ (a : Nat) (rest : List (List UInt8)), av = .int .i64 a ∧ a ≤ 29727 ∧ AtEnt a rest ∧ rest.any (fun e => s.data.toList.isPrefixOf (nameOf e)) = R) (fun av => 29727 - (intOf av).toNat)
  case atStart => exact ⟨0, ENT, rfl, by omega, atEnt_start, HR.out.symm⟩
  case round =>
    obtain ⟨a, rest, rfl, ha, hat, hf⟩ := hrel
    by_cases hlt : a < 29726
    · have hI : (a : Int) < 29726 := by omega
      obtain ⟨e, r, rfl, hmem, hel, hcut, hle, hnext⟩ := atEnt_step hat hlt
      obtain ⟨t1, t2⟩ := name_take e
      obtain ⟨q1, q2, q3⟩ := ent_cuts hmem hcut
      rw [List.any_cons] at hf
      have HF := Lib.hid hf
      obtain ⟨T, hT⟩ : ∃ T, T = a + e.length := ⟨_, rfl⟩
      obtain ⟨K, hK⟩ : ∃ K, K = a + (nameOf e).length := ⟨_, rfl⟩
      have hw1 := Lib.hid (HW.out a (by omega))
      rw [← hel, ← hT] at hw1
      have hs1 := Lib.hid (HSG.out a T (by omega) (by omega))
      rw [hT, hcut, ← t2, ← hT, ← hK] at hs1
      rw [← hK, HNN.out] at q1
      have HB2 := Lib.hid (rBegins1 (N.extract a K) s)
      rw [q1] at HB2
      have hKT : K < T := by omega
      have haK : a ≤ K := by omega
      have hT6 : T ≤ 29726 := by omega
      have i2 : (T : Int) ≤ 29726 := by omega
      have i3 : (a : Int) ≤ (K : Int) := by omega
      have i4 : (K : Int) ≤ 29726 := by omega
      have HNX := Lib.hid hnext
      rw [← hT] at HNX
      clear hf hel hcut hle hnext t1 t2 q1 q2 q3 hT hK hmem
      cases hp : s.data.toList.isPrefixOf (nameOf e) with
      | true =>
        rw [hp] at HB2
        have HV : Hid (true = R) := Lib.hid (by have := HF.out; rw [hp] at this; exact this)
        clear hp
        go_wp2_with fail
        refine (hw1.out _).mono ?_
        rintro e1 w1 ⟨rfl, rfl⟩
        go_wp2_with fail
        refine (hs1.out _).mono ?_
        rintro e2 w2 ⟨rfl, rfl⟩
        go_wp2_with fail
        refine (HB2.out _).mono ?_
        rintro e2 w2 ⟨rfl, rfl⟩
        go_wp2_with fail
        go_ret
        exact ⟨ret_bool HV.out, rfl⟩
      | false =>
        rw [hp] at HB2
        have HV : Hid (r.any (fun e => s.data.toList.isPrefixOf (nameOf e)) = R) := Lib.hid (by have := HF.out; rw [hp, Bool.false_or] at this; exact this)
        clear hp
        go_wp2_with fail
        refine (hw1.out _).mono ?_
        rintro e1 w1 ⟨rfl, rfl⟩
        go_wp2_with fail
        refine (hs1.out _).mono ?_
        rintro e2 w2 ⟨rfl, rfl⟩
        go_wp2_with fail
        refine (HB2.out _).mono ?_
        rintro e2 w2 ⟨rfl, rfl⟩
        go_wp2_with fail
        go_round
        case rel => exact ⟨T + 1, r, by go_num, by omega, HNX.out, HV.out⟩
        case measure => simp [intOf]; omega
    · have hI : ¬ (a : Int) < 29726 := by omega
      rw [atEnt_end hat hlt] at hf
      have HF : Hid (false = R) := Lib.hid hf
      clear hf
      go_wp2_with fail
      go_ret
      exact ⟨ret_bool HF.out, rfl⟩
end Go.Proofs.YtheiehbfbgjgpabDoor

namespace Go.Proofs.YtheiehbfbgjgpabDoor
open Go.RowKit
set_option maxHeartbeats 2000000
set_option maxRecDepth 100000

theorem nmP_uniq {r : Option (List UInt8)} {V V' : ByteArray} {c c' : Int} (h : NmP r V c) (h' : NmP r V' c') : V = V' ∧ c = c' := by
  rcases h with ⟨h1, h2⟩ | ⟨h1, h2, h3⟩
  · rcases h' with ⟨g1, g2⟩ | ⟨g1, g2, g3⟩
    · exact ⟨list_bytes _ _ (Option.some.inj (h1.symm.trans g1)), h2.trans g2.symm⟩
    · rw [h1] at g1; simp at g1
  · rcases h' with ⟨g1, g2⟩ | ⟨g1, g2, g3⟩
    · rw [h1] at g1; simp at g1
    · exact ⟨h2.trans g2.symm, h3.trans g3.symm⟩

theorem textNamed (s : ByteArray) (m : Int) (w : World) (hm : Ml m w) :
    Calls Tryd.prog 4 #[.string s] w fun e w' => e = .returned (.bool true) ∧ Below w.heap.size w w' := by
  have HM := Lib.hid hm
  clear hm
  by_cases hs : s.size ≤ 4096
  · have hI : (s.size : Int) ≤ 4096 := by omega
    have k1 := Lib.hid (named s m)
    have k2 := Lib.hid (rNamed s)
    have k3 := Lib.hid (longest s m)
    have k4 := Lib.hid (rLongest s)
    have k5 := Lib.hid (hasPrefixT s (by omega) m)
    have k6 := Lib.hid (rHasPrefix s)
    go_enter Tryd.func4, Tryd.ntmps4
    go_wp2_with fail
    refine (k1.out w HM.out).mono ?_
    rintro e w1 ⟨V1, c1, rfl, hV1, hb1⟩
    go_wp2_with fail
    refine (k2.out _).mono ?_
    rintro e w2 ⟨V2, c2, rfl, hV2, hb2⟩
    have hb2 := below_next hb1 hb2
    obtain ⟨rfl, rfl⟩ := nmP_uniq hV1 hV2
    clear hV1 hV2
    go_wp2_with fail
    refine (k3.out _ (carry HM.out hb2)).mono ?_
    rintro e w3 ⟨n3, V3, rfl, hV3, hb3⟩
    have hb3 := below_next hb2 hb3
    go_wp2_with fail
    refine (k4.out _).mono ?_
    rintro e w4 ⟨V4, rfl, hV4, hb4⟩
    have hb4 := below_next hb3 hb4
    obtain ⟨g1, g2⟩ := lgP_lgL hV3
    subst g1
    obtain rfl : V3 = V4 := list_bytes _ _ (g2.trans hV4.symm)
    clear hV3 hV4 g2
    generalize hpB s.data.toList = hp at k5 k6
    generalize (lgL s.data.toList).1 = n
    go_wp2_with fail
    refine (k5.out _ (carry HM.out hb4)).mono ?_
    rintro e w5 ⟨rfl, hb5⟩
    have hb5 := below_next hb4 hb5
    go_wp2_with fail
    refine (k6.out _).mono ?_
    rintro e w6 ⟨rfl, rfl⟩
    go_wp2_with fail
    refine (known m _ (carry HM.out hb5)).mono ?_
    rintro e w7 ⟨rfl, hb7⟩
    have hb7 := below_next hb5 hb7
    go_wp2_with fail
    go_ret
    exact ⟨rfl, hb7⟩
  · have hI : (4096 : Int) < (s.size : Int) := by omega
    go_enter Tryd.func4, Tryd.ntmps4
    go_wp2_with fail
    refine (known m _ HM.out).mono ?_
    rintro e w5 ⟨rfl, hb5⟩
    go_wp2_with fail
    go_ret
    exact ⟨rfl, hb5⟩
end Go.Proofs.YtheiehbfbgjgpabDoor
