/-
  What the entries of the table are like: one look by the kernel.
  The longest name as a function of the table; what the table's entries are like. No walk in sight.
  The document's own reading of the table: where entries and names end, and their values.
  The document's own searches of the table.
  Whether some name begins with a string.
  The document's own entries, names and prefixes.
  A range over the sequence of the parts, where a round may end it.
  A range over an iterator with blocks of its own: what lies ahead of its start may be written by the rounds.
  The names in their order: what a prefix of the parts tells.
  TextTable: the walk.
  Names: the sequence of the names and their values.
  TextTable: the sequence put in.
  The longest name of a name with anything behind it.
  TextBehind: the walk.
  TextBehind: the sequence put in.
-/
import Derived.Test.YtheiehbfbgjgpabDoorVal
import Derived.Test.YtheiehbfbgjgpabDoorRdt
import Derived.Test.YtheiehbfbgjgpabDoorKn1
import Derived.Test.YtheiehbfbgjgpabDoorBeg
import Derived.IntWalk
import Derived.Test.YtheiehbfbgjgpabDoorRan
import Derived.Test.YtheiehbfbgjgpabDoorKnw
import Derived.Stop.RegionWithIn
import Derived.Test.YtheiehbfbgjgpabDoorNmd
namespace Go.Proofs.YtheiehbfbgjgpabDoor
open Go.RowKit
set_option maxRecDepth 100000

/-- The code points of an entry, as the document's reader makes them. -/
def refVal : Int → List UInt8 → List Int
  | n, [] => [n]
  | n, b :: t => if b = 44 then n :: refVal 0 t else refVal (16 * n + hexV b.toNat) t
def okVal : Int → List UInt8 → Bool
  | n, [] => decide (0 ≤ n) && decide (n ≤ 1114111)
  | n, b :: t => if b = 44 then decide (0 ≤ n) && decide (n ≤ 1114111) && okVal 0 t else hexB b.toNat && okVal (16 * n + hexV b.toNat) t
/-- What an entry of the table is like. -/
def fineEnt (e : List UInt8) : Bool := !(nameOf e).isEmpty && (nameOf e).all (fun b => alnB b.toNat || b == 59) && okVal 0 (codesOf e) && ((refVal 0 (codesOf e)).flatMap encU == valL (codesOf e)) && decide ((codesOf e).length ≤ 100) && e.any (fun b => b == 61)
theorem ent_fine_b : (parts 32 NM.data.toList).all fineEnt = true := by decide +kernel
theorem ent_fine : ∀ e ∈ ENT, fineEnt e = true := List.all_eq_true.1 ent_fine_b
theorem ent_parts5 {e : List UInt8} (he : e ∈ ENT) : (0 < (nameOf e).length) ∧ ((nameOf e).all (fun b => alnB b.toNat || b == 59) = true) ∧ (okVal 0 (codesOf e) = true) ∧ ((refVal 0 (codesOf e)).flatMap encU = valL (codesOf e)) ∧ ((codesOf e).length ≤ 100) ∧ e.any (fun b => b == 61) = true := by
  have hf := ent_fine e he
  unfold fineEnt at hf
  rw [Bool.and_eq_true, Bool.and_eq_true, Bool.and_eq_true, Bool.and_eq_true, Bool.and_eq_true, beq_iff_eq, decide_eq_true_eq] at hf
  obtain ⟨⟨⟨⟨⟨h1, h2⟩, h3⟩, h4⟩, h5⟩, h6⟩ := hf
  refine ⟨?_, h2, h3, h4, h5, h6⟩
  cases hn : nameOf e with
  | nil => rw [hn] at h1; exact absurd h1 (by decide)
  | cons b t => simp
theorem hexV_bd {b : UInt8} (h : hexB b.toNat = true) : 0 ≤ hexV b.toNat ∧ hexV b.toNat ≤ 15 := by
  have := hexV_hex (b.toNat : Int)
  rw [h, decide_eq_true_eq] at this
  refine ⟨this, ?_⟩
  unfold hexV digB
  (repeat' split) <;> simp at * <;> omega
theorem okVal_bd : ∀ (t : List UInt8) (n : Int), 0 ≤ n → okVal n t = true → n ≤ 1114111
  | [], n, _, h => by simp [okVal] at h; exact h.2
  | b :: t, n, h0, h => by
    unfold okVal at h
    by_cases hb : b = 44
    · rw [if_pos hb] at h; simp at h; exact h.1.2
    · rw [if_neg hb, Bool.and_eq_true] at h
      have hx := hexV_bd h.1
      have := okVal_bd t _ (by omega) h.2
      omega
theorem refVal_bd : ∀ (t : List UInt8) (n : Int), 0 ≤ n → okVal n t = true → ∀ r ∈ refVal n t, 0 ≤ r ∧ r ≤ 1114111
  | [], n, _, h => by simp [okVal] at h; simp [refVal]; exact h
  | b :: t, n, h0, h => by
    unfold okVal at h
    unfold refVal
    by_cases hb : b = 44
    · rw [if_pos hb] at h ⊢
      rw [Bool.and_eq_true, Bool.and_eq_true] at h
      intro r hr
      rcases List.mem_cons.1 hr with rfl | hr
      · simpa using h.1
      · exact refVal_bd t 0 (by omega) h.2 r hr
    · rw [if_neg hb] at h ⊢
      rw [Bool.and_eq_true] at h
      have hx := hexV_bd h.1
      exact refVal_bd t _ (by omega) h.2
theorem refVal_len : ∀ (t : List UInt8) (n : Int), (refVal n t).length ≤ t.length + 1
  | [], n => by simp [refVal]
  | b :: t, n => by
    unfold refVal
    split
    · have := refVal_len t 0; simp; omega
    · have := refVal_len t (16 * n + hexV b.toNat); simp; omega
end Go.Proofs.YtheiehbfbgjgpabDoor

namespace Go.Proofs.YtheiehbfbgjgpabDoor
open Go.RowKit
set_option maxRecDepth 100000

def lgStep (s : List UInt8) (a : Nat × List UInt8) (e : List UInt8) : Nat × List UInt8 := if a.1 < (nameOf e).length ∧ (nameOf e).isPrefixOf s = true then ((nameOf e).length, valL (codesOf e)) else a
def lgT (T : List (List UInt8)) (s : List UInt8) : Nat × List UInt8 := T.foldl (lgStep s) (0, [])
noncomputable def lgL (s : List UInt8) : Nat × List UInt8 := lgT ENT s

theorem lgStep_spec (s : List UInt8) : ∀ (T : List (List UInt8)) (a : Nat × List UInt8),
    (T.foldl (lgStep s) a = a ∧ ∀ e ∈ T, nameOf e <+: s → (nameOf e).length ≤ a.1) ∨
    ∃ e ∈ T, nameOf e <+: s ∧ T.foldl (lgStep s) a = ((nameOf e).length, valL (codesOf e)) ∧ a.1 < (nameOf e).length ∧ ∀ e' ∈ T, nameOf e' <+: s → (nameOf e').length ≤ (nameOf e).length
  | [], a => .inl ⟨rfl, by simp⟩
  | e :: T, a => by
    rw [List.foldl_cons]
    by_cases h : a.1 < (nameOf e).length ∧ (nameOf e).isPrefixOf s = true
    · have hs : lgStep s a e = ((nameOf e).length, valL (codesOf e)) := if_pos h
      have hp : nameOf e <+: s := List.isPrefixOf_iff_prefix.1 h.2
      rw [hs]
      rcases lgStep_spec s T ((nameOf e).length, valL (codesOf e)) with ⟨h1, h2⟩ | ⟨e1, he1, h1, h2, h3, h4⟩
      · refine .inr ⟨e, by simp, hp, h1, h.1, ?_⟩
        intro e' he' hp'
        rcases List.mem_cons.1 he' with rfl | he'
        · exact Nat.le_refl _
        · exact h2 e' he' hp'
      · refine .inr ⟨e1, by simp [he1], h1, h2, by have := h.1; simp at h3; omega, ?_⟩
        intro e' he' hp'
        rcases List.mem_cons.1 he' with rfl | he'
        · simp at h3; omega
        · exact h4 e' he' hp'
    · have hs : lgStep s a e = a := if_neg h
      have hn : nameOf e <+: s → (nameOf e).length ≤ a.1 := by
        intro hp
        rcases Nat.lt_or_ge a.1 (nameOf e).length with h' | h'
        · exact absurd ⟨h', List.isPrefixOf_iff_prefix.2 hp⟩ h
        · exact h'
      rw [hs]
      rcases lgStep_spec s T a with ⟨h1, h2⟩ | ⟨e1, he1, h1, h2, h3, h4⟩
      · refine .inl ⟨h1, ?_⟩
        intro e' he' hp'
        rcases List.mem_cons.1 he' with rfl | he'
        · exact hn hp'
        · exact h2 e' he' hp'
      · refine .inr ⟨e1, by simp [he1], h1, h2, h3, ?_⟩
        intro e' he' hp'
        rcases List.mem_cons.1 he' with rfl | he'
        · have := hn hp'; omega
        · exact h4 e' he' hp'

theorem pair_uniq {α : Type} {R : α → α → Prop} : ∀ {l : List α}, l.Pairwise R → ∀ a ∈ l, ∀ b ∈ l, a = b ∨ R a b ∨ R b a
  | [], _, a, ha, _, _ => by simp at ha
  | x :: l, h, a, ha, b, hb => by
    rw [List.pairwise_cons] at h
    rcases List.mem_cons.1 ha with e | ha'
    · rcases List.mem_cons.1 hb with e2 | hb'
      · exact .inl (e.trans e2.symm)
      · exact .inr (.inl (e ▸ h.1 b hb'))
    · rcases List.mem_cons.1 hb with e2 | hb'
      · exact .inr (.inr (e2 ▸ h.1 a ha'))
      · exact pair_uniq h.2 a ha' b hb'
theorem ent_name {a b : List UInt8} (ha : a ∈ ENT) (hb : b ∈ ENT) (h : nameOf a = nameOf b) : a = b := by
  rcases pair_uniq ent_sorted a ha b hb with e | e | e
  · exact e
  · rw [h, ltB_irrefl] at e; exact absurd e (by decide)
  · rw [h, ltB_irrefl] at e; exact absurd e (by decide)
theorem ent_ne {e : List UInt8} (he : e ∈ ENT) : 0 < (nameOf e).length := (ent_parts5 he).1

theorem lg_uniq (T : List (List UInt8)) (hu : ∀ a ∈ T, ∀ b ∈ T, nameOf a = nameOf b → a = b) (hne : ∀ a ∈ T, 0 < (nameOf a).length) {s : List UInt8} {n : Int} {v : List UInt8}
    (h : (n = 0 ∧ v = [] ∧ ∀ e ∈ T, ¬ nameOf e <+: s) ∨ ∃ e ∈ T, nameOf e <+: s ∧ n = (nameOf e).length ∧ v = valL (codesOf e) ∧ ∀ e' ∈ T, nameOf e' <+: s → (nameOf e').length ≤ (nameOf e).length) :
    n = ((lgT T s).1 : Nat) ∧ v = (lgT T s).2 := by
  unfold lgT
  rcases lgStep_spec s T (0, []) with ⟨h1, h2⟩ | ⟨e1, he1, h1, h2, h3, h4⟩
  · rw [h1]
    rcases h with ⟨g1, g2, g3⟩ | ⟨e, he, g1, g2, g3, g4⟩
    · exact ⟨g1, g2⟩
    · have h5 : (nameOf e).length ≤ 0 := h2 e he g1
      have h6 := hne e he
      omega
  · rw [h2]
    rcases h with ⟨g1, g2, g3⟩ | ⟨e, he, g1, g2, g3, g4⟩
    · exact absurd h1 (g3 e1 he1)
    · have l1 := h4 e he g1
      have l2 := g4 e1 he1 h1
      have hlen : (nameOf e).length = (nameOf e1).length := by omega
      have a1 := List.prefix_iff_eq_take.1 g1
      have a2 := List.prefix_iff_eq_take.1 h1
      rw [hlen] at a1
      have := hu e he e1 he1 (a1.trans a2.symm)
      subst this
      exact ⟨g2, g3⟩
theorem lgP_lgL {s : List UInt8} {n : Int} {V : ByteArray} (h : LgP s n V) : n = ((lgL s).1 : Nat) ∧ V.data.toList = (lgL s).2 := by
  refine lg_uniq ENT (fun a ha b hb => ent_name ha hb) (fun a ha => ent_ne ha) ?_
  rcases h with ⟨g1, g2, g3⟩ | ⟨e, he, g1, g2, g3, g4⟩
  · exact .inl ⟨g1, by rw [g2], g3⟩
  · exact .inr ⟨e, he, g1, g2, g3, g4⟩
end Go.Proofs.YtheiehbfbgjgpabDoor

namespace Go.Proofs.YtheiehbfbgjgpabDoor
open Go.RowKit
set_option maxHeartbeats 2000000
set_option maxRecDepth 100000

def nR (c : UInt8) (l : List UInt8) : Nat := (l.takeWhile fun b => b != c).length
theorem nR_nil (c : UInt8) : nR c [] = 0 := rfl
theorem nR_yes {c b : UInt8} (t : List UInt8) (h : b = c) : nR c (b :: t) = 0 := by simp [nR, h]
theorem nR_no {c b : UInt8} (t : List UInt8) (h : b ≠ c) : nR c (b :: t) = nR c t + 1 := by simp [nR, h]
theorem nR_le (c : UInt8) (l : List UInt8) : nR c l ≤ l.length := (List.takeWhile_sublist _).length_le

theorem rWord (at_ : Nat) (h : at_ ≤ 29726) (w : World) :
    Calls Tryd.prog 45 #[.int .i64 at_] w fun e w' => e = .returned (.int .i64 (at_ + nR 32 (NM.data.toList.drop at_) : Nat)) ∧ w' = w := by
  have hsz := nm_size
  go_enter Tryd.func45, Tryd.ntmps45
  generalize hN : (ByteArray.mk (List.toArray (List.append _ _))) = N
  have HN : NM = N := by rw [← hN]; rfl
  clear hN
  rw [HN] at hsz ⊢
  clear HN
  have HSZ := Lib.hid hsz
  have hsi : (N.size : Int) = 29726 := by omega
  clear hsz
  obtain ⟨R, hR⟩ : ∃ R, R = at_ + nR 32 (N.data.toList.drop at_) := ⟨_, rfl⟩
  rw [← hR]
  have HR := Lib.hid hR
  clear hR
  go_wp2_with fail
  go_loop [0] (fun i => ∃ k : Nat, k ≤ 29726 ∧ i = .int .i64 k ∧ k + nR 32 (N.data.toList.drop k) = R) (fun i => 29726 - (intOf i).toNat)
  case atStart => exact ⟨at_, h, rfl, HR.out.symm⟩
  case round =>
    obtain ⟨k, hk, rfl, hr⟩ := hrel
    have HRR := Lib.hid hr
    clear hr
    by_cases hlt : k < 29726
    · have hlt2 : k < N.size := by rw [HSZ.out]; exact hlt
      have hI : (k : Int) < (N.size : Int) := by omega
      have hI2 : (k : Int) < 29726 := by omega
      have HD := Lib.hid (drop_byte N k hlt2)
      by_cases hb : N[k]'hlt2 = 32
      · have hq : (((N[k]'hlt2).toNat : Int) != 32) = false := by rw [hb]; rfl
        have HF : Hid (k = R) := Lib.hid (by rw [← HRR.out, HD.out, nR_yes _ hb]; rfl)
        clear hb
        go_wp2_with fail
        go_ret
        exact ⟨ret_int (by rw [HF.out]), rfl⟩
      · have hq : (((N[k]'hlt2).toNat : Int) != 32) = true := by
          rw [bne_iff_ne]
          intro e
          exact hb (UInt8.toNat_inj.mp (by show _ = 32; omega))
        have HF : Hid (k + 1 + nR 32 (N.data.toList.drop (k + 1)) = R) := Lib.hid (by rw [← HRR.out, HD.out, nR_no _ hb]; omega)
        clear hb
        go_wp2_with fail
        go_round
        case rel => exact ⟨k + 1, by omega, by go_num, HF.out⟩
        case measure => simp [intOf]; omega
    · have hI : ¬ (k : Int) < (N.size : Int) := by omega
      have hI2 : ¬ (k : Int) < 29726 := by omega
      have HF : Hid (k = R) := Lib.hid (by rw [← HRR.out, drop_end N k (by rw [HSZ.out]; omega)]; rfl)
      go_wp2_with fail
      go_ret
      exact ⟨ret_int (by rw [HF.out]), rfl⟩

theorem rSign (from_ to_ : Nat) (hft : from_ ≤ to_) (ht : to_ ≤ 29726) (w : World) :
    Calls Tryd.prog 46 #[.int .i64 from_, .int .i64 to_] w fun e w' => e = .returned (.int .i64 (from_ + nR 61 (cutAt NM.data.toList from_ to_) : Nat)) ∧ w' = w := by
  have hsz := nm_size
  go_enter Tryd.func46, Tryd.ntmps46
  generalize hN : (ByteArray.mk (List.toArray (List.append _ _))) = N
  have HN : NM = N := by rw [← hN]; rfl
  clear hN
  rw [HN] at hsz ⊢
  clear HN
  have HSZ := Lib.hid hsz
  have hsi : (N.size : Int) = 29726 := by omega
  clear hsz
  obtain ⟨R, hR⟩ : ∃ R, R = from_ + nR 61 (cutAt N.data.toList from_ to_) := ⟨_, rfl⟩
  rw [← hR]
  have HR := Lib.hid hR
  clear hR
  go_wp2_with fail
  go_loop [0] (fun i => ∃ k : Nat, k ≤ to_ ∧ i = .int .i64 k ∧ k + nR 61 (cutAt N.data.toList k to_) = R) (fun i => to_ - (intOf i).toNat)
  case atStart => exact ⟨from_, hft, rfl, HR.out.symm⟩
  case round =>
    obtain ⟨k, hk, rfl, hr⟩ := hrel
    have HRR := Lib.hid hr
    clear hr
    by_cases hlt : k < to_
    · have hlt2 : k < N.size := by rw [HSZ.out]; omega
      have hI : (k : Int) < (N.size : Int) := by omega
      have hI2 : (k : Int) < (to_ : Int) := by omega
      have hI3 : (k : Int) < 29726 := by omega
      have hD : cutAt N.data.toList k to_ = N[k]'hlt2 :: cutAt N.data.toList (k + 1) to_ := by
        unfold cutAt
        have hl2 : k < (N.data.toList.take to_).length := by rw [List.length_take, size_list]; omega
        rw [List.drop_eq_getElem_cons hl2, List.getElem_take]
        rfl
      have HD := Lib.hid hD
      clear hD
      by_cases hb : N[k]'hlt2 = 61
      · have hq : (((N[k]'hlt2).toNat : Int) != 61) = false := by rw [hb]; rfl
        have HF : Hid (k = R) := Lib.hid (by rw [← HRR.out, HD.out, nR_yes _ hb]; rfl)
        clear hb
        go_wp2_with fail
        go_ret
        exact ⟨ret_int (by rw [HF.out]), rfl⟩
      · have hq : (((N[k]'hlt2).toNat : Int) != 61) = true := by
          rw [bne_iff_ne]
          intro e
          exact hb (UInt8.toNat_inj.mp (by show _ = 61; omega))
        have HF : Hid (k + 1 + nR 61 (cutAt N.data.toList (k + 1) to_) = R) := Lib.hid (by rw [← HRR.out, HD.out, nR_no _ hb]; omega)
        clear hb
        go_wp2_with fail
        go_round
        case rel => exact ⟨k + 1, by omega, by go_num, HF.out⟩
        case measure => simp [intOf]; omega
    · have hI : ¬ (k : Int) < (to_ : Int) := by omega
      have HF : Hid (k = R) := Lib.hid (by
        rw [← HRR.out]
        unfold cutAt
        rw [List.drop_eq_nil_of_le (by rw [List.length_take]; omega)]
        rfl)
      go_wp2_with fail
      go_ret
      exact ⟨ret_int (by rw [HF.out]), rfl⟩

theorem own_form2 {w : World} {B e size n : Nat} {v : Value} {xs : List Value} (h : w.ownsRow B e size v n xs) : ∃ a c, v = .slice a n c := by
  rcases h.2 with ⟨rfl, rfl⟩ | ⟨g, cap, cur, rfl, _⟩
  · exact ⟨_, _, rfl⟩
  · exact ⟨_, _, rfl⟩

theorem rValue (s : ByteArray) (hs : s.size ≤ 100) (hok : okVal 0 s.data.toList = true) (w : World) :
    Calls Tryd.prog 48 #[.string s] w fun e w' => e = .returned (.string ⟨((refVal 0 s.data.toList).flatMap encU).toArray⟩) ∧ Below w.heap.size w w' := by
  obtain ⟨i0, hi, hz0, hz1, hz2⟩ := info_parts info_i32
  have hbd := refVal_bd s.data.toList 0 (by omega) hok
  have hln := refVal_len s.data.toList 0
  rw [size_list] at hln
  obtain ⟨R, hR⟩ : ∃ R, R = refVal 0 s.data.toList := ⟨_, rfl⟩
  rw [← hR] at hbd hln ⊢
  have HR := Lib.hid hR
  have HBD := Lib.hid hbd
  clear hR hbd
  go_enter Tryd.func48, Tryd.ntmps48
  go_wp2_with fail
  go_loopw [3, 4, 5] (fun v nv iv wr => ∃ (k n : Nat) (z : Int) (pre : List Int), k ≤ s.size + 1 ∧ iv = .int .i64 k ∧ nv = .int .i64 z ∧ 0 ≤ z ∧ pre.length = n ∧ n ≤ k ∧ (k ≤ s.size → pre ++ refVal z (s.data.toList.drop k) = R ∧ okVal z (s.data.toList.drop k) = true) ∧ (s.size < k → pre = R) ∧ wr.ownsRow w.heap.size 21 1 v n (i32c pre) ∧ Below w.heap.size w wr) (fun _ _ iv _ => s.size + 1 - (intOf iv).toNat)
  case atStart => exact ⟨0, 0, 0, [], Nat.zero_le _, rfl, rfl, by omega, rfl, Nat.le_refl _, fun _ => ⟨HR.out.symm, by simpa using hok⟩, fun h => absurd h (by omega), World.ownsRow_nil _ _ _ _, Below.refl _ _⟩
  case round =>
    obtain ⟨k, n, z, pre, hk, rfl, rfl, hz, hln2, hnk, hrest, hend, hown, hB⟩ := hrel
    have HLN := Lib.hid hln2
    have HREST := Lib.hid hrest
    have HEND := Lib.hid hend
    have hsz := hB.size
    clear hln2 hrest hend
    by_cases hle : k ≤ s.size
    · have hI : (k : Int) ≤ (s.size : Int) := by omega
      obtain ⟨h1, h2⟩ := HREST.out hle
      have hzu := okVal_bd _ z hz h2
      by_cases hlt : k < s.size
      · have hI2 : (k : Int) < (s.size : Int) := by omega
        have hne : ((k : Int) == (s.size : Int)) = false := by rw [beq_eq_false_iff_ne]; omega
        rw [drop_byte s k hlt] at h1 h2
        by_cases hb : s[k]'hlt = 44
        · have hq : (((s[k]'hlt).toNat : Int) == 44) = true := by rw [hb]; rfl
          rw [refVal, if_pos hb] at h1
          rw [okVal, if_pos hb, Bool.and_eq_true] at h2
          have HN : Hid ((pre ++ [z]) ++ refVal 0 (s.data.toList.drop (k + 1)) = R ∧ okVal 0 (s.data.toList.drop (k + 1)) = true) := Lib.hid ⟨by rw [← h1]; simp, h2.2⟩
          clear h1 h2 hb
          go_wp2_with (first | (at_builtin; refine wpList_append_own _ rfl _ _ 94 rfl w.heap.size 21 i0 (.int .i32 0) 1 4 Tryd.underlying94 hi hz0 hz1 hz2 rfl (by decide) _ _ _ rfl (hown.alloc _) ⟨_, 0, none⟩ 1 1 [.int .i32 z] rfl rfl (one_cell _ _ _) (one_oneI _) (by unfold maxLen; omega) (by omega) (by simp; omega) ?_; intro v' w9 hown' hgrow _))
          have hB' := own_grown hB hown rfl hgrow
          have HO : Hid (w9.ownsRow w.heap.size 21 1 v' (n + 1) (i32c (pre ++ [z]))) := Lib.hid (by
            have := hown'
            simpa [i32c] using this)
          clear hown' hgrow
          go_wp2
          go_roundw
          case rel => exact ⟨k + 1, n + 1, 0, pre ++ [z], by omega, by go_num, rfl, by omega, by have := HLN.out; simp; omega, by omega, fun _ => HN.out, fun h => absurd h (by omega), HO.out, hB'⟩
          case measure => simp [intOf]; omega
        · have hq : (((s[k]'hlt).toNat : Int) == 44) = false := by
            rw [beq_eq_false_iff_ne]
            intro e
            exact hb (UInt8.toNat_inj.mp (by show _ = 44; omega))
          rw [refVal, if_neg hb] at h1
          rw [okVal, if_neg hb, Bool.and_eq_true] at h2
          have hx := hexV_bd h2.1
          have HN : Hid (pre ++ refVal (16 * z + hexV (s[k]'hlt).toNat) (s.data.toList.drop (k + 1)) = R ∧ okVal (16 * z + hexV (s[k]'hlt).toNat) (s.data.toList.drop (k + 1)) = true) := Lib.hid ⟨h1, h2.2⟩
          have HH := Lib.hid (rHex ((s[k]'hlt).toNat : Int))
          obtain ⟨hx0, hx1⟩ := hx
          clear h1 h2 hb
          generalize hexV (s[k]'hlt).toNat = x at HN HH hx0 hx1
          go_wp2_with fail
          refine (HH.out _).mono ?_
          rintro e w' ⟨rfl, rfl⟩
          go_wp2_with fail
          go_roundw
          case rel => exact ⟨k + 1, n, 16 * z + x, pre, by omega, by go_num, rfl, by omega, HLN.out, by omega, fun _ => HN.out, fun h => absurd h (by omega), hown, hB⟩
          case measure => simp [intOf]; omega
      · have hks : ((k : Int) == (s.size : Int)) = true := by rw [beq_iff_eq]; omega
        rw [drop_end s k (by omega)] at h1
        have HN : Hid (pre ++ [z] = R) := Lib.hid h1
        clear h1 h2
        go_wp2_with (first | (at_builtin; refine wpList_append_own _ rfl _ _ 94 rfl w.heap.size 21 i0 (.int .i32 0) 1 4 Tryd.underlying94 hi hz0 hz1 hz2 rfl (by decide) _ _ _ rfl (hown.alloc _) ⟨_, 0, none⟩ 1 1 [.int .i32 z] rfl rfl (one_cell _ _ _) (one_oneI _) (by unfold maxLen; omega) (by omega) (by simp; omega) ?_; intro v' w9 hown' hgrow _))
        have hB' := own_grown hB hown rfl hgrow
        have HO : Hid (w9.ownsRow w.heap.size 21 1 v' (n + 1) (i32c (pre ++ [z]))) := Lib.hid (by
          have := hown'
          simpa [i32c] using this)
        clear hown' hgrow
        go_wp2
        go_roundw
        case rel => exact ⟨k + 1, n + 1, 0, pre ++ [z], by omega, by go_num, rfl, by omega, by have := HLN.out; simp; omega, by omega, fun h => absurd h (by omega), fun _ => HN.out, HO.out, hB'⟩
        case measure => simp [intOf]; omega
    · have hI : (s.size : Int) < (k : Int) := by omega
      have hR2 := HEND.out (by omega)
      have hown2 := hown
      rw [← HLN.out, hR2] at hown2
      have HT := Lib.hid (rText _ w.heap.size R HBD.out (by omega) wr hown2)
      obtain ⟨a, c, hac⟩ := own_form2 hown2
      subst hac
      clear hown2 hown hR2
      go_wp2_with fail
      refine HT.out.mono ?_
      rintro e w5 ⟨rfl, hb5⟩
      go_wp2_with fail
      go_ret
      exact ⟨rfl, below_next hB hb5⟩
end Go.Proofs.YtheiehbfbgjgpabDoor

namespace Go.Proofs.YtheiehbfbgjgpabDoor
open Go.RowKit
set_option maxHeartbeats 2000000
set_option maxRecDepth 100000

/-- The first part, and the others. -/
theorem parts_cons (l : List UInt8) : parts 32 l = l.take (nR 32 l) :: (if nR 32 l = l.length then [] else parts 32 (l.drop (nR 32 l + 1))) := by
  induction l with
  | nil => rfl
  | cons b t ih =>
    by_cases hb : b = 32
    · subst hb
      rw [nR_yes _ rfl, if_neg (by simp)]
      rfl
    · rw [nR_no _ hb, List.take_succ_cons, List.length_cons, List.drop_succ_cons]
      rw [parts, if_neg (by simpa using hb), ih]
      simp
theorem cut_take (l : List UInt8) (a n : Nat) : cutAt l a (a + n) = (l.drop a).take n := by
  unfold cutAt
  rw [List.drop_take, Nat.add_sub_cancel_left]
theorem name_take (e : List UInt8) : e.take (nR 61 e) = nameOf e ∧ (nameOf e).length = nR 61 e := by
  unfold nR nameOf
  exact ⟨(List.prefix_iff_eq_take.1 (List.takeWhile_prefix _)).symm, rfl⟩
theorem codes_drop (e : List UInt8) (h : e.any (fun b => b == 61) = true) : nR 61 e < e.length ∧ e.drop (nR 61 e + 1) = codesOf e := by
  induction e with
  | nil => simp at h
  | cons b t ih =>
    by_cases hb : b = 61
    · subst hb
      rw [nR_yes _ rfl]
      exact ⟨by simp, rfl⟩
    · have hb2 : (b == 61) = false := by simpa using hb
      rw [List.any_cons, hb2, Bool.false_or] at h
      obtain ⟨h1, h2⟩ := ih h
      rw [nR_no _ hb, List.length_cons, List.drop_succ_cons]
      refine ⟨by omega, h2.trans ?_⟩
      have : (b != 61) = true := by simpa using hb
      simp [codesOf, this]

/-- What is left of the table at an offset. -/
structure AtEnt (a : Nat) (rest : List (List UInt8)) : Prop where
  here : (a < 29726 ∧ rest = parts 32 (NM.data.toList.drop a)) ∨ (29726 ≤ a ∧ rest = [])
  mem : ∀ x ∈ rest, x ∈ ENT
theorem atEnt_start : AtEnt 0 ENT := ⟨.inl ⟨by omega, rfl⟩, fun _ h => h⟩
theorem atEnt_end {a : Nat} {rest : List (List UInt8)} (h : AtEnt a rest) (ha : ¬ a < 29726) : rest = [] := by
  rcases h.here with ⟨h1, _⟩ | ⟨_, h1⟩
  · exact absurd h1 ha
  · exact h1
theorem atEnt_step {a : Nat} {rest : List (List UInt8)} (h : AtEnt a rest) (ha : a < 29726) : ∃ (e : List UInt8) (r : List (List UInt8)), rest = e :: r ∧ e ∈ ENT ∧ e.length = nR 32 (NM.data.toList.drop a) ∧
    cutAt NM.data.toList a (a + e.length) = e ∧ a + e.length ≤ 29726 ∧ AtEnt (a + e.length + 1) r := by
  rcases h.here with ⟨_, h1⟩ | ⟨h1, _⟩
  · have hl := nm_length
    have hle := nR_le 32 (NM.data.toList.drop a)
    rw [List.length_drop, hl] at hle
    rw [parts_cons] at h1
    have hlen : ((NM.data.toList.drop a).take (nR 32 (NM.data.toList.drop a))).length = nR 32 (NM.data.toList.drop a) := by
      rw [List.length_take, List.length_drop, hl]; omega
    refine ⟨_, _, h1, h.mem _ (by rw [h1]; simp), hlen, by rw [hlen, cut_take], by rw [hlen]; omega, ?_⟩
    rw [hlen]
    refine ⟨?_, fun x hx => h.mem x (by rw [h1]; exact List.mem_cons_of_mem _ hx)⟩
    by_cases he : nR 32 (NM.data.toList.drop a) = (NM.data.toList.drop a).length
    · rw [if_pos he]
      rw [List.length_drop, hl] at he
      exact .inr ⟨by omega, rfl⟩
    · rw [if_neg he]
      rw [List.length_drop, hl] at he
      refine .inl ⟨?_, by rw [List.drop_drop, Nat.add_assoc]⟩
      rcases Nat.lt_or_ge (a + nR 32 (NM.data.toList.drop a) + 1) 29726 with h2 | h2
      · exact h2
      · exfalso
        have h4 := nm_last_b
        rw [List.getLast?_eq_getElem?, hl] at h4
        have h5 : (NM.data.toList.drop a)[nR 32 (NM.data.toList.drop a)]? = some 32 := by
          have key : ∀ l : List UInt8, nR 32 l ≠ l.length → l[nR 32 l]? = some 32 := by
            intro l
            induction l with
            | nil => intro h; simp [nR_nil] at h
            | cons b t ih =>
              intro h
              by_cases hb : b = 32
              · subst hb; rw [nR_yes _ rfl]; rfl
              · rw [nR_no _ hb] at h ⊢
                rw [List.getElem?_cons_succ]
                exact ih (by simpa using h)
          exact key _ (by rw [List.length_drop, hl]; exact he)
        rw [List.getElem?_drop, show a + nR 32 (NM.data.toList.drop a) = 29726 - 1 by omega] at h5
        rw [h5] at h4
        simp at h4
  · omega

theorem rLongest (s : ByteArray) (w : World) :
    Calls Tryd.prog 19 #[.string s] w fun e w' => ∃ V : ByteArray, e = .returned (.tuple #[.int .i64 (lgL s.data.toList).1, .string V]) ∧ V.data.toList = (lgL s.data.toList).2 ∧ Below w.heap.size w w' := by
  have hsz := nm_size
  have HW := Lib.hid rWord
  have HSG := Lib.hid rSign
  go_enter Tryd.func19, Tryd.ntmps19
  generalize hN : (ByteArray.mk (List.toArray (List.append _ _))) = N
  have HN : NM = N := by rw [← hN]; rfl
  clear hN
  rw [HN] at hsz
  have HSZ := Lib.hid hsz
  have hsi : (N.size : Int) = 29726 := by omega
  have HNN := Lib.hid HN
  clear hsz HN
  go_wp2_with fail
  go_loopw [4, 5, 6] (fun nv vv av wr => ∃ (a n : Nat) (V : ByteArray) (rest : List (List UInt8)), av = .int .i64 a ∧ nv = .int .i64 n ∧ vv = .string V ∧ a ≤ 29727 ∧ n ≤ 29727 ∧ AtEnt a rest ∧ rest.foldl (lgStep s.data.toList) (n, V.data.toList) = lgL s.data.toList ∧ Below w.heap.size w wr) (fun _ _ av _ => 29727 - (intOf av).toNat)
  case atStart => exact ⟨0, 0, ⟨#[]⟩, ENT, rfl, rfl, rfl, by omega, by omega, atEnt_start, rfl, Below.refl _ _⟩
  case round =>
    obtain ⟨a, n, V, rest, rfl, rfl, rfl, ha, hn, hat, hfold, hB⟩ := hrel
    by_cases hlt : a < 29726
    · have hI : (a : Int) < 29726 := by omega
      obtain ⟨e, r, rfl, hmem, hel, hcut, hle, hnext⟩ := atEnt_step hat hlt
      obtain ⟨p1, p2, p3, p4, p5, p6⟩ := ent_parts5 hmem
      obtain ⟨c1, c2⟩ := codes_drop e p6
      obtain ⟨t1, t2⟩ := name_take e
      rw [List.foldl_cons] at hfold
      have HF := Lib.hid hfold
      obtain ⟨T, hT⟩ : ∃ T, T = a + e.length := ⟨_, rfl⟩
      obtain ⟨K, hK⟩ : ∃ K, K = a + (nameOf e).length := ⟨_, rfl⟩
      have hw1 := Lib.hid (HW.out a (by omega))
      rw [← hel, ← hT] at hw1
      have hs1 := Lib.hid (HSG.out a T (by omega) (by omega))
      rw [hT, hcut, ← t2, ← hT, ← hK] at hs1
      have hKT : K < T := by omega
      have haK : a ≤ K := by omega
      have hT6 : T ≤ 29726 := by omega
      have hcutK : (N.extract a K).data.toList = nameOf e := by
        rw [← HNN.out, nm_slice, hK, cut_take, t2]
        have h1 := congrArg (List.take (nR 61 e)) hcut
        rw [cut_take, List.take_take, Nat.min_eq_left (by omega)] at h1
        exact h1.trans t1
      have hcutT : (N.extract (K + 1) T).data.toList = codesOf e := by
        rw [← HNN.out, nm_slice, ← c2]
        have h1 := congrArg (List.drop (nR 61 e + 1)) hcut
        unfold cutAt at h1 ⊢
        rw [List.drop_drop] at h1
        rw [hT, hK, t2, ← h1, Nat.add_assoc]
      have hvs : (N.extract (K + 1) T).size ≤ 100 := by rw [← size_list, hcutT]; exact p5
      have HB2 := Lib.hid (rBegins1 s (N.extract a K))
      rw [hcutK] at HB2
      have HV := Lib.hid (rValue (N.extract (K + 1) T) hvs (by rw [hcutT]; exact p3))
      rw [hcutT, p4] at HV
      have HNX := Lib.hid hnext
      rw [← hT] at HNX
      have i1 : (K : Int) < (T : Int) := by omega
      have i2 : (T : Int) ≤ 29726 := by omega
      have i3 : (a : Int) ≤ (K : Int) := by omega
      have i4 : (K : Int) ≤ 29726 := by omega
      have i5 : (K : Int) + 1 ≤ (T : Int) := by omega
      have HLK : Hid ((nameOf e).length = K - a) := Lib.hid (by omega)
      have hnk : n < (nameOf e).length ↔ (n : Int) < (K : Int) - (a : Int) := by omega
      have HNK := Lib.hid hnk
      clear hfold hel hcut hle hnext p1 p2 p3 p4 p5 p6 c1 c2 t1 t2 hT hK hcutK hcutT hnk hmem
      by_cases hgt : (n : Int) < (K : Int) - (a : Int)
      · cases hp : (nameOf e).isPrefixOf s.data.toList with
        | true =>
          rw [hp] at HB2
          have HS : Hid (r.foldl (lgStep s.data.toList) (K - a, valL (codesOf e)) = lgL s.data.toList) := Lib.hid (by
            rw [← HF.out, lgStep, if_pos ⟨HNK.out.2 hgt, hp⟩, HLK.out])
          clear hp
          go_wp2_with fail
          refine (hw1.out _).mono ?_
          rintro e1 w1 ⟨rfl, rfl⟩
          go_wp2_with fail
          refine (hs1.out _).mono ?_
          rintro e2 w2 ⟨rfl, rfl⟩
          go_wp2_with fail
          refine (HB2.out _).mono ?_
          rintro e2 w2 ⟨rfl, rfl⟩
          go_wp2_with fail
          refine (HV.out _).mono ?_
          rintro e2 w2 ⟨rfl, hb2⟩
          go_wp2_with fail
          go_roundw
          case rel => exact ⟨T + 1, K - a, ⟨(valL (codesOf e)).toArray⟩, r, by go_num, by go_num, rfl, by omega, by omega, HNX.out, HS.out, below_next hB hb2⟩
          case measure => simp [intOf]; omega
        | false =>
          rw [hp] at HB2
          have HS : Hid (r.foldl (lgStep s.data.toList) (n, V.data.toList) = lgL s.data.toList) := Lib.hid (by
            rw [← HF.out, lgStep, if_neg (by simp [hp])])
          clear hp
          go_wp2_with fail
          refine (hw1.out _).mono ?_
          rintro e1 w1 ⟨rfl, rfl⟩
          go_wp2_with fail
          refine (hs1.out _).mono ?_
          rintro e2 w2 ⟨rfl, rfl⟩
          go_wp2_with fail
          refine (HB2.out _).mono ?_
          rintro e2 w2 ⟨rfl, rfl⟩
          go_wp2_with fail
          go_roundw
          case rel => exact ⟨T + 1, n, V, r, by go_num, rfl, rfl, by omega, hn, HNX.out, HS.out, hB⟩
          case measure => simp [intOf]; omega
      · have HS : Hid (r.foldl (lgStep s.data.toList) (n, V.data.toList) = lgL s.data.toList) := Lib.hid (by
          rw [← HF.out, lgStep, if_neg (fun h => hgt (HNK.out.1 h.1))])
        have hd : decide ((n : Int) < (K : Int) - (a : Int)) = false := by simpa using hgt
        clear hgt i1 i2 i3 i4 i5
        go_wp2_with fail
        refine (hw1.out _).mono ?_
        rintro e1 w1 ⟨rfl, rfl⟩
        go_wp2_with fail
        refine (hs1.out _).mono ?_
        rintro e2 w2 ⟨rfl, rfl⟩
        go_wp2_with fail
        go_roundw
        case rel => exact ⟨T + 1, n, V, r, by go_num, rfl, rfl, by omega, hn, HNX.out, HS.out, hB⟩
        case measure => simp [intOf]; omega
    · have hI : ¬ (a : Int) < 29726 := by omega
      rw [atEnt_end hat hlt] at hfold
      have HF : Hid ((n, V.data.toList) = lgL s.data.toList) := Lib.hid hfold
      clear hfold
      go_wp2_with fail
      go_ret2
      exact ⟨V, by rw [← HF.out]; rfl, by rw [← HF.out], hB⟩
end Go.Proofs.YtheiehbfbgjgpabDoor

namespace Go.Proofs.YtheiehbfbgjgpabDoor
open Go.RowKit
set_option maxHeartbeats 2000000
set_option maxRecDepth 100000

noncomputable def hpB (s : List UInt8) : Bool := ENT.any fun e => s.isPrefixOf (nameOf e)

/-- Between a string and one that begins with it, all begin with it. -/
theorem mid_prefix : ∀ (s x r : List UInt8), ltB s x = true → ltB x (s ++ r) = true → s <+: x
  | [], x, r, _, _ => List.nil_prefix
  | a :: s, [], r, h, _ => by simp [ltB, Op.bytesLess] at h
  | a :: s, b :: x, r, h, h2 => by
    rw [List.cons_append] at h2
    by_cases hab : a = b
    · subst hab
      have e1 := ltB_app [a] s x
      have e2 := ltB_app [a] x (s ++ r)
      simp only [List.singleton_append] at e1 e2
      rw [e1] at h
      rw [e2] at h2
      exact (List.cons_prefix_cons).2 ⟨rfl, mid_prefix s x r h h2⟩
    · exfalso
      rw [ltB_head hab] at h
      rw [ltB_head (fun e => hab e.symm)] at h2
      simp only [decide_eq_true_eq, UInt8.lt_iff_toNat_lt] at h h2
      omega
/-- Greater, and not beginning with it. -/
def Gt (s x : List UInt8) : Prop := ltB s x = true ∧ ¬ s <+: x
theorem gt_up {s x y : List UInt8} (h : Gt s x) (h2 : ltB x y = true) : Gt s y := by
  refine ⟨ltB_trans _ _ _ h.1 h2, ?_⟩
  rintro ⟨r, rfl⟩
  exact h.2 (mid_prefix s x r h.1 h2)
theorem lt_not {s x : List UInt8} (h : ltB x s = true) : ¬ s <+: x := by
  intro hp
  have := leB_prefix hp
  rw [(leB_not s x).2 h] at this
  exact absurd this (by decide)

structure HalvP (s : List UInt8) (lo hi : Nat) : Prop where
  below : ∀ S E, IsEnt NM.data.toList S E → S < lo → ltB (nameOf (cutAt NM.data.toList S E)) s = true
  above : ∀ S E, IsEnt NM.data.toList S E → hi ≤ S → Gt s (nameOf (cutAt NM.data.toList S E))
theorem halvP_start (s : List UInt8) : HalvP s 0 29726 := by
  refine ⟨fun S E _ h => absurd h (by omega), fun S E h hS => ?_⟩
  exfalso
  have h1 := h.le
  have h2 := h.len
  rw [nm_length] at h2
  have h3 := h.left.resolve_left (by omega)
  have h4 := nm_last_b
  rw [List.getLast?_eq_getElem?, nm_length] at h4
  rw [show S - 1 = 29726 - 1 by omega] at h3
  rw [h3] at h4
  simp at h4
theorem halvP_up {s : List UInt8} {lo hi : Nat} (h : HalvP s lo hi) {S E : Nat} (he : IsEnt NM.data.toList S E) (hlt : ltB (nameOf (cutAt NM.data.toList S E)) s = true) : HalvP s (E + 1) hi := by
  refine ⟨fun S' E' h' hS => ?_, h.above⟩
  rcases Nat.lt_trichotomy S S' with h1 | rfl | h1
  · have := ent_next he h' h1; omega
  · rw [← ent_uniq he h']; exact hlt
  · exact ltB_trans _ _ _ (ent_order ent_sorted h' he h1) hlt
theorem halvP_down {s : List UInt8} {lo hi : Nat} (h : HalvP s lo hi) {S E : Nat} (he : IsEnt NM.data.toList S E) (hgt : Gt s (nameOf (cutAt NM.data.toList S E))) : HalvP s lo S := by
  refine ⟨h.below, fun S' E' h' hS => ?_⟩
  rcases Nat.lt_or_eq_of_le hS with h1 | rfl
  · exact gt_up hgt (ent_order ent_sorted he h' h1)
  · rw [← ent_uniq he h']; exact hgt
theorem halvP_end {s : List UInt8} {lo hi : Nat} (h : HalvP s lo hi) (hl : hi ≤ lo) : hpB s = false := by
  unfold hpB
  rw [List.any_eq_false]
  intro e he
  rw [List.isPrefixOf_iff_prefix]
  obtain ⟨S, E, hI, rfl⟩ := ent_of _ _ (Nat.le_refl _) e he
  rcases Nat.lt_or_ge S lo with h1 | h1
  · exact lt_not (h.below S E hI h1)
  · exact (h.above S E hI (by omega)).2
theorem halvP_yes {s : List UInt8} {S E : Nat} (he : IsEnt NM.data.toList S E) (hp : s <+: nameOf (cutAt NM.data.toList S E)) : hpB s = true := by
  unfold hpB
  rw [List.any_eq_true]
  exact ⟨_, ent_mem he, List.isPrefixOf_iff_prefix.2 hp⟩

/-- The three ways out of the comparison. -/
theorem cmp_short {A s : List UInt8} {i : Nat} (h : A.take i = s.take i) (hA : i = A.length) (hs : i < s.length) : ltB A s = true := by
  rw [hA, List.take_length] at h
  have e : s = A ++ s.drop A.length := by conv => lhs; rw [← List.take_append_drop A.length s, ← h]
  rw [e]
  have h1 := ltB_app A [] (s.drop A.length)
  rw [List.append_nil] at h1
  rw [h1]
  cases hd : s.drop A.length with
  | nil => have := congrArg List.length hd; rw [List.length_drop] at this; simp at this; omega
  | cons b t => exact ltB_nil b t
theorem cmp_less {A s : List UInt8} {i : Nat} (h : A.take i = s.take i) (hA : i < A.length) (hs : i < s.length) (hlt : A[i] < s[i]) : ltB A s = true := by
  rw [split_at A i hA, split_at s i hs, h, ltB_app, ltB_head (fun e => by rw [e, UInt8.lt_iff_toNat_lt] at hlt; omega)]
  exact decide_eq_true hlt
theorem cmp_more {A s : List UInt8} {i : Nat} (h : A.take i = s.take i) (hA : i < A.length) (hs : i < s.length) (hlt : s[i] < A[i]) : Gt s A := by
  refine ⟨cmp_less h.symm hs hA hlt, ?_⟩
  rintro ⟨r, hr⟩
  have h1 : A[i] = s[i] := by
    have h2 : A[i]? = s[i]? := by rw [← hr, List.getElem?_append_left hs]
    rw [List.getElem?_eq_getElem hA, List.getElem?_eq_getElem hs] at h2
    exact Option.some.inj h2
  rw [h1, UInt8.lt_iff_toNat_lt] at hlt
  omega
theorem cmp_all {A s : List UInt8} (h : A.take s.length = s.take s.length) : s <+: A := by
  rw [List.take_length] at h
  rw [← h]
  exact List.take_prefix _ _

theorem field_name (A B : ByteArray) (w : World) : (Instr.field 63 (.agg #[.string A, .string B]) 0).run Tryd.prog w = .ok (.string A) w := by kernel_rfl

theorem hasPrefixT (s : ByteArray) (hs : s.size ≤ 100000) (m : Int) (w : World) (hm : w.cell? ⟨1, 0, none⟩ = some (.int .i64 m)) :
    Calls Tryd.prog 20 #[.string s] w fun e w' => e = .returned (.bool (hpB s.data.toList)) ∧ Below w.heap.size w w' := by
  have hsz := nm_size
  go_enter Tryd.func20, Tryd.ntmps20
  generalize hN : (ByteArray.mk (List.toArray (List.append _ _))) = N
  have HN : NM = N := by rw [← hN]; rfl
  clear hN
  rw [HN] at hsz
  have HQ := Lib.hid HN
  clear HN
  have HSZ := Lib.hid hsz
  clear hsz
  have HM := Lib.hid hm
  clear hm
  obtain ⟨R, hR⟩ : ∃ R, R = hpB s.data.toList := ⟨_, rfl⟩
  rw [← hR]
  have HR := Lib.hid hR
  clear hR
  go_wp2_with fail
  go_step3
  go_wp2
  go_step3
  go_wp2
  go_loopw [3, 4] (fun l h wr => ∃ lo hi : Nat, l = .int .i64 lo ∧ h = .int .i64 hi ∧ lo ≤ 29727 ∧ hi ≤ 29726 ∧ HalvP s.data.toList lo hi ∧ Below w.heap.size w wr) (fun l h _ => ((intOf h).toNat - (intOf l).toNat))
  case atStart => exact ⟨0, 29726, rfl, rfl, by omega, by omega, halvP_start _, Below.refl _ _⟩
  case round =>
    obtain ⟨lo, hi, rfl, rfl, hlo, hhi, hH, hB⟩ := hrel
    have HH := Lib.hid hH
    clear hH
    by_cases hlt : lo < hi
    · have hmid : ((lo : Int) + hi) / 2 = (((lo + hi) / 2 : Nat) : Int) := by omega
      have HMID := Lib.hid hmid
      clear hmid
      go_wp2_with fail
      rw [HMID.out]
      refine (entryAround _ (by rw [nm_size]; omega) _).mono ?_
      rintro e w' ⟨S, E, rfl, hI, hS, hE, rfl⟩
      have hlenE : E ≤ 29726 := by have := hI.len; rwa [nm_length] at this
      have hSE := hI.le
      have h1 : (S : Int) ≤ (N.size : Int) := by have := HSZ.out; omega
      have h2 : (E : Int) ≤ (N.size : Int) := by have := HSZ.out; omega
      have h3 : (S : Int) ≤ (E : Int) := by omega
      have HI := Lib.hid hI
      have HC := Lib.hid (parse (N.extract S E) (by rw [ByteArray.size_extract]; omega) m wr (carry HM.out hB))
      clear hI
      go_wp2_with fail
      refine HC.out.mono ?_
      rintro e w1 ⟨A, B, rfl, hA, hB', hb⟩
      have HA := Lib.hid (hA.trans (by rw [← HQ.out, nm_slice]))
      have hBw := below_next hB hb
      clear hA hB' hb hB HC
      have hfd := field_name A B w1
      go_wp2_with fail
      clear hfd
      have hA0 : A.data.toList.length = A.size := size_list A
      have hs0 : s.data.toList.length = s.size := size_list s
      have HA0 := Lib.hid hA0
      have HS0 := Lib.hid hs0
      clear hA0 hs0 h1 h2 h3
      go_loopw [3, 4, 27] (fun l4 h4 v wq => ∃ i : Nat, l4 = .int .i64 lo ∧ h4 = .int .i64 hi ∧ v = .int .i64 i ∧ i ≤ s.size ∧ i ≤ A.size ∧ A.data.toList.take i = s.data.toList.take i ∧ Below w.heap.size w wq) (fun _ _ v _ => s.size - (intOf v).toNat)
      case atStart => exact ⟨0, rfl, rfl, rfl, Nat.zero_le _, Nat.zero_le _, by simp, hBw⟩
      case round =>
        obtain ⟨i, rfl, rfl, rfl, hi1, hi2, ht, hBq⟩ := hrel
        have HT := Lib.hid ht
        clear ht hBw
        by_cases hil : i < s.size
        · have hI1 : (i : Int) < (s.size : Int) := by omega
          have hi4 : i < s.data.toList.length := by rw [HS0.out]; exact hil
          by_cases hiA : i < A.size
          · have hI2 : (i : Int) < (A.size : Int) := by omega
            have hqe : ((i : Int) == (A.size : Int)) = false := by rw [beq_eq_false_iff_ne]; omega
            have hi3 : i < A.data.toList.length := by rw [HA0.out]; exact hiA
            rcases Nat.lt_trichotomy (A[i]'hiA).toNat (s[i]'hil).toNat with hc | hc | hc
            · have hd : decide ((A[i]'hiA).toNat < (s[i]'hil).toNat) = true := by simpa using hc
              have HX := Lib.hid (halvP_up HH.out HI.out (by
                rw [← HA.out]
                exact cmp_less HT.out hi3 hi4 (UInt8.lt_iff_toNat_lt.2 hc)))
              clear hc hi3 hi4
              go_wp2_with fail
              go_quiet (fail)
              go_wp2_with fail
              refine ⟨⟨E + 1, hi, by go_num, rfl, by omega, hhi, HX.out, by (repeat' (first | (with_reducible exact Below.refl _ _) | (with_reducible assumption) | (with_reducible refine below_alloc ?_ _) | (with_reducible refine Below.drew ?_) | (with_reducible refine below_drewN ?_ _) | (with_reducible refine Below.setCell ?_ ?_ _) | go_size | (refine below_next ?_ (by assumption))))⟩, by simp [intOf]; omega⟩
            · have hd : decide ((A[i]'hiA).toNat < (s[i]'hil).toNat) = false := by simp; omega
              have hd2 : decide ((s[i]'hil).toNat < (A[i]'hiA).toNat) = false := by simp; omega
              have HE := Lib.hid (show A[i]'hiA = s[i]'hil from UInt8.toNat_inj.mp hc)
              clear hc hi3 hi4
              go_wp2_with fail
              go_quiet (fail)
              go_wp2_with fail
              go_quiet (fail)
              go_wp2_with fail
              go_roundw
              case rel =>
                refine ⟨i + 1, rfl, rfl, by go_num, by omega, by omega, ?_, by (repeat' (first | (with_reducible exact Below.refl _ _) | (with_reducible assumption) | (with_reducible refine below_alloc ?_ _) | (with_reducible refine Below.drew ?_) | (with_reducible refine below_drewN ?_ _) | (with_reducible refine Below.setCell ?_ ?_ _) | go_size | (refine below_next ?_ (by assumption))))⟩
                rw [take_snoc A i hiA, take_snoc s i hil, HT.out, HE.out]
              case measure => simp [intOf]; omega
            · have hd : decide ((A[i]'hiA).toNat < (s[i]'hil).toNat) = false := by simp; omega
              have hd2 : decide ((s[i]'hil).toNat < (A[i]'hiA).toNat) = true := by simpa using hc
              have HX := Lib.hid (halvP_down HH.out HI.out (by
                rw [← HA.out]
                exact cmp_more HT.out hi3 hi4 (UInt8.lt_iff_toNat_lt.2 hc)))
              clear hc hi3 hi4
              go_wp2_with fail
              go_quiet (fail)
              go_wp2_with fail
              go_quiet (fail)
              go_wp2_with fail
              refine ⟨⟨lo, S, rfl, rfl, hlo, by omega, HX.out, by (repeat' (first | (with_reducible exact Below.refl _ _) | (with_reducible assumption) | (with_reducible refine below_alloc ?_ _) | (with_reducible refine Below.drew ?_) | (with_reducible refine below_drewN ?_ _) | (with_reducible refine Below.setCell ?_ ?_ _) | go_size | (refine below_next ?_ (by assumption))))⟩, by simp [intOf]; omega⟩
          · have hqe : ((i : Int) == (A.size : Int)) = true := by rw [beq_iff_eq]; omega
            have HX := Lib.hid (halvP_up HH.out HI.out (by
              rw [← HA.out]
              exact cmp_short HT.out (by rw [HA0.out]; omega) hi4))
            clear hi4
            go_wp2_with fail
            go_quiet (fail)
            go_wp2_with fail
            refine ⟨⟨E + 1, hi, by go_num, rfl, by omega, hhi, HX.out, by (repeat' (first | (with_reducible exact Below.refl _ _) | (with_reducible assumption) | (with_reducible refine below_alloc ?_ _) | (with_reducible refine Below.drew ?_) | (with_reducible refine below_drewN ?_ _) | (with_reducible refine Below.setCell ?_ ?_ _) | go_size | (refine below_next ?_ (by assumption))))⟩, by simp [intOf]; omega⟩
        · have hI1 : ¬ (i : Int) < (s.size : Int) := by omega
          have HX : Hid (true = R) := Lib.hid (by
            rw [HR.out]
            refine (halvP_yes HI.out ?_).symm
            rw [← HA.out]
            refine cmp_all ?_
            rw [HS0.out, show s.size = i by omega]
            exact HT.out)
          go_wp2_with fail
          go_ret
          exact ⟨ret_bool HX.out, hBq⟩
    · have HX : Hid (false = R) := Lib.hid (by rw [HR.out]; exact (halvP_end HH.out (by omega)).symm)
      go_wp2_with fail
      rw [Exit.noGoto_ret]
      go_ret
      exact ⟨ret_bool HX.out, hB⟩
end Go.Proofs.YtheiehbfbgjgpabDoor

namespace Go.Proofs.YtheiehbfbgjgpabDoor
open Go.RowKit
set_option maxHeartbeats 2000000
set_option maxRecDepth 100000

/-- What an entry's numbers are. -/
theorem ent_cuts {a : Nat} {e : List UInt8} (he : e ∈ ENT) (hcut : cutAt NM.data.toList a (a + e.length) = e) :
    (NM.extract a (a + (nameOf e).length)).data.toList = nameOf e ∧ (NM.extract (a + (nameOf e).length + 1) (a + e.length)).data.toList = codesOf e ∧ (nameOf e).length < e.length := by
  obtain ⟨p1, p2, p3, p4, p5, p6⟩ := ent_parts5 he
  obtain ⟨c1, c2⟩ := codes_drop e p6
  obtain ⟨t1, t2⟩ := name_take e
  refine ⟨?_, ?_, by omega⟩
  · rw [nm_slice, cut_take, t2]
    have h1 := congrArg (List.take (nR 61 e)) hcut
    rw [cut_take, List.take_take, Nat.min_eq_left (by omega)] at h1
    exact h1.trans t1
  · rw [nm_slice, ← c2]
    have h1 := congrArg (List.drop (nR 61 e + 1)) hcut
    unfold cutAt at h1 ⊢
    rw [List.drop_drop] at h1
    rw [t2, ← h1, Nat.add_assoc]

theorem rEntry (a : Nat) (E : List UInt8) (he : E ∈ ENT) (hel : E.length = nR 32 (NM.data.toList.drop a)) (hcut : cutAt NM.data.toList a (a + E.length) = E) (hle : a + E.length ≤ 29726) (w : World) :
    Calls Tryd.prog 23 #[.int .i64 a] w fun x w' => ∃ A : ByteArray, x = .returned (.tuple #[.string A, .string ⟨(valL (codesOf E)).toArray⟩, .int .i64 (a + E.length + 1 : Nat)]) ∧ A.data.toList = nameOf E ∧ Below w.heap.size w w' := by
  have hsz := nm_size
  have HW := Lib.hid (rWord a (by omega))
  have HSG := Lib.hid (rSign a (a + E.length) (by omega) hle)
  obtain ⟨p1, p2, p3, p4, p5, p6⟩ := ent_parts5 he
  obtain ⟨t1, t2⟩ := name_take E
  obtain ⟨q1, q2, q3⟩ := ent_cuts he hcut
  rw [hcut, ← t2] at HSG
  rw [← hel] at HW
  obtain ⟨T, hT⟩ : ∃ T, T = a + E.length := ⟨_, rfl⟩
  obtain ⟨K, hK⟩ : ∃ K, K = a + (nameOf E).length := ⟨_, rfl⟩
  rw [← hT] at HW HSG q2 ⊢
  rw [← hK] at HSG q1 q2
  have hvs : (NM.extract (K + 1) T).size ≤ 100 := by rw [← size_list, q2]; exact p5
  have HV := Lib.hid (rValue (NM.extract (K + 1) T) hvs (by rw [q2]; exact p3))
  rw [q2, p4] at HV
  have hKT : K < T := by omega
  have haK : a ≤ K := by omega
  have i1 : (K : Int) + 1 ≤ (T : Int) := by omega
  have i2 : (T : Int) ≤ 29726 := by omega
  have i3 : (a : Int) ≤ (K : Int) := by omega
  have i4 : (K : Int) ≤ 29726 := by omega
  have HQ1 := Lib.hid q1
  clear p1 p2 p3 p4 p5 p6 t1 t2 q1 q2 q3 hT hK hvs hel hcut hle
  go_enter Tryd.func23, Tryd.ntmps23
  generalize hN : (ByteArray.mk (List.toArray (List.append _ _))) = N
  have HN : NM = N := by rw [← hN]; rfl
  clear hN
  rw [HN] at hsz HV HQ1
  have HSZ := Lib.hid hsz
  have hsi : (N.size : Int) = 29726 := by omega
  clear hsz HN
  go_wp2_with fail
  refine (HW.out _).mono ?_
  rintro e1 w1 ⟨rfl, rfl⟩
  go_wp2_with fail
  refine (HSG.out _).mono ?_
  rintro e2 w2 ⟨rfl, rfl⟩
  have s1 : IntKind.i64.wrap ((K : Int) + 1) = (K : Int) + 1 := IntWalk.i64_in _ (by omega)
  have s2 : (0 : Int) ≤ (K : Int) + 1 := by omega
  have s3 : ((K : Int) + 1).toNat = K + 1 := by omega
  have s4 : IntKind.i64.wrap ((T : Int) + 1) = (T : Int) + 1 := IntWalk.i64_in _ (by omega)
  have s5 : (0 : Int) ≤ (K : Int) := by omega
  have s6 : (0 : Int) ≤ (T : Int) := by omega
  have s7 : (0 : Int) ≤ (a : Int) := by omega
  have s8 : (T : Int) ≤ (N.size : Int) := by omega
  have s9 : (K : Int) ≤ (N.size : Int) := by omega
  have HV2 : Hid (∀ w', Below w2.heap.size w2 w' → Calls Tryd.prog 48 #[.string (N.extract (K + 1) T)] w' fun e w3 => e = .returned (.string ⟨(valL (codesOf E)).toArray⟩) ∧ Below w2.heap.size w2 w3) := Lib.hid (fun w' h => (HV.out w').mono fun e w3 ⟨h1, h2⟩ => ⟨h1, below_next h h2⟩)
  go_wp2_with fail
  go_region_held3 (fun w' => Below w2.heap.size w2 w') (first | exact Below.refl _ _ | exact Below.drew (Below.refl _ _) | assumption | go_keep)
    (first | (go_at_call 48; refine (HV2.out _ (by first | assumption | exact Below.refl _ _ | exact Below.drew (Below.refl _ _) | exact Below.drew (by assumption))).mono ?_; rintro e w3 ⟨rfl, hb3⟩))
  all_goals
    clear s1 s2 s3 s4 s5 s6 s7 s8 s9
    go_wp2_with fail
    go_ret3
    exact ⟨N.extract a K, by first | rfl | (congr 3), HQ1.out, by first | assumption | exact Below.drew (by assumption)⟩

theorem rNamed (s : ByteArray) (w : World) :
    Calls Tryd.prog 17 #[.string s] w fun e w' => ∃ (V : ByteArray) (c : Int), e = .returned (.tuple #[.string V, .int .i64 c]) ∧ NmP (namedR s.data.toList) V c ∧ Below w.heap.size w w' := by
  obtain ⟨R, hR⟩ : ∃ R, R = namedR s.data.toList := ⟨_, rfl⟩
  have hR2 := hR
  unfold namedR at hR2
  rw [← hR]
  have HR := Lib.hid hR2
  clear hR hR2
  go_enter Tryd.func17, Tryd.ntmps17
  go_wp2_with fail
  go_loopw [4] (fun av wr => ∃ (a : Nat) (rest : List (List UInt8)), av = .int .i64 a ∧ a ≤ 29727 ∧ AtEnt a rest ∧ (rest.find? (fun e => nameOf e == s.data.toList)).map (fun e => valL (codesOf e)) = R ∧ Below w.heap.size w wr) (fun av _ => 29727 - (intOf av).toNat)
  case atStart => exact ⟨0, ENT, rfl, by omega, atEnt_start, HR.out.symm, Below.refl _ _⟩
  case round =>
    obtain ⟨a, rest, rfl, ha, hat, hf, hB⟩ := hrel
    by_cases hlt : a < 29726
    · have hI : (a : Int) < 29726 := by omega
      obtain ⟨e, r, rfl, hmem, hel, hcut, hle, hnext⟩ := atEnt_step hat hlt
      have HE := Lib.hid (rEntry a e hmem hel hcut hle wr)
      rw [List.find?_cons] at hf
      have HF := Lib.hid hf
      have HNX := Lib.hid hnext
      obtain ⟨T, hT⟩ : ∃ T, T = a + e.length + 1 := ⟨_, rfl⟩
      have hT1 : a < T := by omega
      have hT2 : T ≤ 29727 := by omega
      rw [← hT] at HE HNX
      clear hf hnext hel hcut hle hmem hT
      go_wp2_with fail
      refine HE.out.mono ?_
      rintro x w1 ⟨A, rfl, hA, hb1⟩
      have HA := Lib.hid hA
      clear hA
      cases hq : (nameOf e == s.data.toList) with
      | true =>
        have hq2 : (A.toList == s.toList) = true := by rw [ByteArray.toList_eq, ByteArray.toList_eq, HA.out]; exact hq
        have HV : Hid (some (valL (codesOf e)) = R) := Lib.hid (by have := HF.out; rw [hq] at this; exact this)
        clear hq
        go_wp2_with fail
        go_ret2
        exact ⟨_, _, rfl, .inl ⟨HV.out.symm, rfl⟩, below_next hB hb1⟩
      | false =>
        have hq2 : (A.toList == s.toList) = false := by rw [ByteArray.toList_eq, ByteArray.toList_eq, HA.out]; exact hq
        have HV : Hid ((r.find? (fun e => nameOf e == s.data.toList)).map (fun e => valL (codesOf e)) = R) := Lib.hid (by have := HF.out; rw [hq] at this; exact this)
        clear hq
        go_wp2_with fail
        go_roundw
        case rel => exact ⟨T, r, rfl, hT2, HNX.out, HV.out, below_next hB hb1⟩
        case measure => simp [intOf]; omega
    · have hI : ¬ (a : Int) < 29726 := by omega
      rw [atEnt_end hat hlt] at hf
      have HF : Hid (none = R) := Lib.hid hf
      clear hf
      go_wp2_with fail
      go_ret2
      exact ⟨_, _, rfl, .inr ⟨HF.out.symm, rfl, rfl⟩, hB⟩

theorem rHasPrefix (s : ByteArray) (w : World) :
    Calls Tryd.prog 21 #[.string s] w fun e w' => e = .returned (.bool (hpB s.data.toList)) ∧ w' = w := by
  have hsz := nm_size
  have HW := Lib.hid rWord
  have HSG := Lib.hid rSign
  obtain ⟨R, hR⟩ : ∃ R, R = hpB s.data.toList := ⟨_, rfl⟩
  have hR2 := hR
  unfold hpB at hR2
  rw [← hR]
  have HR := Lib.hid hR2
  clear hR hR2
  go_enter Tryd.func21, Tryd.ntmps21
  generalize hN : (ByteArray.mk (List.toArray (List.append _ _))) = N
  have HN : NM = N := by rw [← hN]; rfl
  clear hN
  rw [HN] at hsz
  have HNN := Lib.hid HN
  have HSZ := Lib.hid hsz
  have hsi : (N.size : Int) = 29726 := by omega
  clear hsz HN
  go_wp2_with fail
  go_loop [3] (fun av => ∃ (a : Nat) (rest : List (List UInt8)), av = .int .i64 a ∧ a ≤ 29727 ∧ AtEnt a rest ∧ rest.any (fun e => s.data.toList.isPrefixOf (nameOf e)) = R) (fun av => 29727 - (intOf av).toNat)
  case atStart => exact ⟨0, ENT, rfl, by omega, atEnt_start, HR.out.symm⟩
  case round =>
    obtain ⟨a, rest, rfl, ha, hat, hf⟩ := hrel
    by_cases hlt : a < 29726
    · have hI : (a : Int) < 29726 := by omega
      obtain ⟨e, r, rfl, hmem, hel, hcut, hle, hnext⟩ := atEnt_step hat hlt
      obtain ⟨t1, t2⟩ := name_take e
      obtain ⟨q1, q2, q3⟩ := ent_cuts hmem hcut
      rw [List.any_cons] at hf
      have HF := Lib.hid hf
      obtain ⟨T, hT⟩ : ∃ T, T = a + e.length := ⟨_, rfl⟩
      obtain ⟨K, hK⟩ : ∃ K, K = a + (nameOf e).length := ⟨_, rfl⟩
      have hw1 := Lib.hid (HW.out a (by omega))
      rw [← hel, ← hT] at hw1
      have hs1 := Lib.hid (HSG.out a T (by omega) (by omega))
      rw [hT, hcut, ← t2, ← hT, ← hK] at hs1
      rw [← hK, HNN.out] at q1
      have HB2 := Lib.hid (rBegins1 (N.extract a K) s)
      rw [q1] at HB2
      have hKT : K < T := by omega
      have haK : a ≤ K := by omega
      have hT6 : T ≤ 29726 := by omega
      have i2 : (T : Int) ≤ 29726 := by omega
      have i3 : (a : Int) ≤ (K : Int) := by omega
      have i4 : (K : Int) ≤ 29726 := by omega
      have HNX := Lib.hid hnext
      rw [← hT] at HNX
      clear hf hel hcut hle hnext t1 t2 q1 q2 q3 hT hK hmem
      cases hp : s.data.toList.isPrefixOf (nameOf e) with
      | true =>
        rw [hp] at HB2
        have HV : Hid (true = R) := Lib.hid (by have := HF.out; rw [hp] at this; exact this)
        clear hp
        go_wp2_with fail
        refine (hw1.out _).mono ?_
        rintro e1 w1 ⟨rfl, rfl⟩
        go_wp2_with fail
        refine (hs1.out _).mono ?_
        rintro e2 w2 ⟨rfl, rfl⟩
        go_wp2_with fail
        refine (HB2.out _).mono ?_
        rintro e2 w2 ⟨rfl, rfl⟩
        go_wp2_with fail
        go_ret
        exact ⟨ret_bool HV.out, rfl⟩
      | false =>
        rw [hp] at HB2
        have HV : Hid (r.any (fun e => s.data.toList.isPrefixOf (nameOf e)) = R) := Lib.hid (by have := HF.out; rw [hp, Bool.false_or] at this; exact this)
        clear hp
        go_wp2_with fail
        refine (hw1.out _).mono ?_
        rintro e1 w1 ⟨rfl, rfl⟩
        go_wp2_with fail
        refine (hs1.out _).mono ?_
        rintro e2 w2 ⟨rfl, rfl⟩
        go_wp2_with fail
        refine (HB2.out _).mono ?_
        rintro e2 w2 ⟨rfl, rfl⟩
        go_wp2_with fail
        go_round
        case rel => exact ⟨T + 1, r, by go_num, by omega, HNX.out, HV.out⟩
        case measure => simp [intOf]; omega
    · have hI : ¬ (a : Int) < 29726 := by omega
      rw [atEnt_end hat hlt] at hf
      have HF : Hid (false = R) := Lib.hid hf
      clear hf
      go_wp2_with fail
      go_ret
      exact ⟨ret_bool HF.out, rfl⟩
end Go.Proofs.YtheiehbfbgjgpabDoor

namespace Go.Proofs.YtheiehbfbgjgpabDoor
open Go.RowKit Go.Shelf
attribute [local go_sem] Oper.semAt_some
set_option maxHeartbeats 1000000
set_option maxRecDepth 100000

theorem splitSeq_at (s : ByteArray) (c : UInt8) (w : World) :
    Calls Tryd.prog 52 #[.string s, .string ⟨#[c]⟩] w fun e w' => ∃ b0 b1 b2, e = .returned (.func (.func 96) #[] #[.pointer (some ⟨b0, 0, none⟩), .pointer (some ⟨b1, 0, none⟩), .pointer (some ⟨b2, 0, none⟩)]) ∧
      Boxed w' b0 9 (.string ⟨#[c]⟩) ∧ Boxed w' b1 9 (.string s) ∧ Boxed w' b2 3 (.int .i64 0) ∧ b0 ≠ b1 ∧ b1 ≠ b2 ∧ w.heap.size ≤ b0 ∧ w.heap.size ≤ b1 ∧ w.heap.size ≤ b2 ∧ Below w.heap.size w w' := by
  go_enter Tryd.func52, Tryd.ntmps52
  go_wp2
  refine bodyPost_ret (results_tmp rfl _ _ _) rfl ?_
  exact ⟨w.heap.size + 1, w.heap.size, w.heap.size + 1 + 1, rfl, boxed_new _ _ _ _ (by simp) |>.alloc _, ((Boxed.new _ _ _).alloc _).alloc _, boxed_new _ _ _ _ (by simp), by omega, by omega, by omega, Nat.le_refl _, by omega, by (repeat' (first | (with_reducible exact Below.refl _ _) | (with_reducible assumption) | (with_reducible refine below_alloc ?_ _) | (with_reducible refine Below.drew ?_) | (with_reducible refine below_drewN ?_ _) | (with_reducible refine Below.setCell ?_ ?_ _) | go_size | (refine below_next ?_ (by assumption))))⟩
theorem split_stops (n : Nat) (hn : 1 ≤ n) (l b0 b1 b2 : Nat) (c : UInt8) (s : ByteArray) (hs : s.size ≤ 100000) (J Jx : List ByteArray → World → Prop) (W : World) (h01 : b0 ≠ b1) (h12 : b1 ≠ b2)
    (hJ : ∀ xs A r x, J xs A → Boxed A b1 9 (.string r) → J xs (A.setCell ⟨b1, 0, none⟩ (.string x)))
    (hY : ∀ pre x r W1, J pre W1 → pre ++ [x] <+: partsB c s → pre.length ≤ s.size → x.size ≤ s.size → Boxed W1 b0 9 (.string ⟨#[c]⟩) → Boxed W1 b1 9 (.string r) → Boxed W1 b2 3 (.int .i64 0) → YieldAt Fence.wide (n - 1) Tryd.prog l #[.string x] W1 fun e W' =>
      (e = .returned (.bool true) ∧ J (pre ++ [x]) W' ∧ W'.heap[b0]? = W1.heap[b0]? ∧ W'.heap[b1]? = W1.heap[b1]? ∧ W'.heap[b2]? = W1.heap[b2]?) ∨ (e = .returned (.bool false) ∧ Jx (pre ++ [x]) W'))
    (hc0 : Boxed W b0 9 (.string ⟨#[c]⟩)) (hc1 : Boxed W b1 9 (.string s)) (hc2 : Boxed W b2 3 (.int .i64 0)) (h0 : J [] W) :
    CallsIn Fence.wide n Tryd.prog 96 #[.func (.yield l) #[] #[], .pointer (some ⟨b0, 0, none⟩), .pointer (some ⟨b1, 0, none⟩), .pointer (some ⟨b2, 0, none⟩)] W fun e W' => (∃ v, e = .returned v) ∧ (J (partsB c s) W' ∨ ∃ pre, pre <+: partsB c s ∧ Jx pre W') := by
  refine callsIn_of_wp Tryd.func96 rfl trivial ?_ rfl
  simp only [Tryd.ntmps96, List.size_toArray, List.length_cons, List.length_nil, Nat.reduceAdd, Nat.reduceSub, Array.replicate_succ, Array.replicate_zero, List.push_toArray, List.append_toArray, List.nil_append, List.cons_append]
  have k0 := hc0.cell
  have k1 := hc1.cell
  have k2 := hc2.cell
  gi_wp2_with fail
  have HJ := Lib.hid hJ
  have HY := Lib.hid hY
  clear hJ hY k0 k1 k2
  gi_loopw [7] (fun _ wr => ∃ (pre : List ByteArray) (r : ByteArray), pre ++ partsB c r = partsB c s ∧ r.size + pre.length ≤ s.size ∧ J pre wr ∧ Boxed wr b0 9 (.string ⟨#[c]⟩) ∧ Boxed wr b1 9 (.string r) ∧ Boxed wr b2 3 (.int .i64 0))
    (fun _ wr => match wr.cell? ⟨b1, 0, none⟩ with | some (.string r) => r.size | _ => 0)
  case atStart => exact ⟨[], s, rfl, by simp, h0, hc0, hc1, hc2⟩
  case round =>
    obtain ⟨pre, r, hp, hsz, hJr, g0, g1, g2⟩ := hrel
    have k0 := g0.cell
    have k1 := g1.cell
    have k2 := g2.cell
    have f1 := g1.frozen
    have HP := Lib.hid hp
    clear hp
    have HIX := Lib.hid (Tryd.strings_Index_one r c wr)
    rcases partsB_step c r with ⟨h1, h2⟩ | ⟨i, h1, h2, h3⟩
    · rw [h1] at HIX
      have HPC := Lib.hid h2
      clear h1 h2
      obtain ⟨fn, tmps, assign, body, hy, hR⟩ := HY.out pre r r wr hJr (by rw [← HP.out, HPC.out]; exact List.prefix_refl _) (by omega) (by omega) g0 g1 g2
      gi_wp2_with (refine ⟨trivial, ?_⟩; gi_at_call 98; refine (callsIn_wide.2 HIX.out).mono ?_; rintro e W1 ⟨rfl, rfl⟩)
      refine hR.mono ?_
      rintro e W3 (⟨rfl, hJ3, _, _, _⟩ | ⟨rfl, hJ3⟩)
      · gi_wp2
        go_end0
        have e := HP.out
        rw [HPC.out] at e
        exact ⟨⟨_, rfl⟩, .inl (e ▸ hJ3)⟩
      · gi_wp2
        go_end0
        have e := HP.out
        rw [HPC.out] at e
        exact ⟨⟨_, rfl⟩, .inr ⟨_, ⟨[], by rw [e]; simp⟩, hJ3⟩⟩
    · rw [h1] at HIX
      have HPC := Lib.hid h3
      clear h1 h3
      have hx0 : (i : Int) ≤ (r.size : Int) := by omega
      have hx1 : (i : Int) + 1 ≤ (r.size : Int) := by omega
      obtain ⟨fn, tmps, assign, body, hy, hR⟩ := HY.out pre (r.extract 0 i) r wr hJr (by rw [← HP.out, HPC.out]; exact ⟨partsB c (r.extract (i + 1) r.size), by simp⟩) (by omega) (by rw [ByteArray.size_extract]; omega) g0 g1 g2
      gi_wp2_with (refine ⟨trivial, ?_⟩; gi_at_call 98; refine (callsIn_wide.2 HIX.out).mono ?_; rintro e W1 ⟨rfl, rfl⟩)
      refine hR.mono ?_
      rintro e W3 (⟨rfl, hJ3, j0, j1, j2⟩ | ⟨rfl, hJ3⟩)
      rotate_left
      · gi_wp2
        refine bodyPost_ret (results_none rfl _ _ _) rfl ?_
        exact ⟨⟨_, rfl⟩, .inr ⟨_, ⟨partsB c (r.extract (i + 1) r.size), by rw [← HP.out, HPC.out]; simp⟩, hJ3⟩⟩
      have g0' : Boxed W3 b0 9 (.string ⟨#[c]⟩) := j0.trans g0
      have g1' : Boxed W3 b1 9 (.string r) := j1.trans g1
      have g2' : Boxed W3 b2 3 (.int .i64 0) := j2.trans g2
      have k0' := g0'.cell
      have k1' := g1'.cell
      have k2' := g2'.cell
      have f1' := g1'.frozen
      clear j0 j1 j2
      gi_wp2
      go_roundw
      case rel =>
        refine ⟨pre ++ [r.extract 0 i], r.extract (i + 1) r.size, ?_, ?_, HJ.out _ _ _ _ hJ3 g1', g0'.other h01 _, g1'.set _, g2'.other (Ne.symm h12) _⟩
        · rw [← HP.out, HPC.out]; simp
        · rw [ByteArray.size_extract]; simp; omega
      case measure =>
        rw [k1, (g1'.set _).cell]
        simp [ByteArray.size_extract]; omega

/-- How the body of a round over the parts is left. -/
def stopPost (B b0 b1 b2 : Nat) (I Ix : List ByteArray → World → Prop) (xs : List ByteArray) (W : World) : Exit → Act → World → Prop
  | .normal, _, W' => KeepsFrom B W W' ∧ W'.heap[b0]? = W.heap[b0]? ∧ W'.heap[b1]? = W.heap[b1]? ∧ W'.heap[b2]? = W.heap[b2]? ∧ I xs W'
  | .ret, _, W' => KeepsFrom B W W' ∧ Ix xs W'
  | _, _, _ => False

theorem range_stops {n : Nat} {g : Operand} {ps : Array Tmp} {assign body : Code} {Q : Exit → Act → World → Prop} {a : Act} {w : World} (h1 : 1 ≤ n - 1) (b0 b1 b2 : Nat) (c : UInt8) (s : ByteArray) (hs : s.size ≤ 100000)
    (hg : a.eval g = .func (.func 96) #[] #[.pointer (some ⟨b0, 0, none⟩), .pointer (some ⟨b1, 0, none⟩), .pointer (some ⟨b2, 0, none⟩)]) (hps : ps.size = 1) (h01 : b0 ≠ b1) (h12 : b1 ≠ b2)
    (hc0 : Boxed w b0 9 (.string ⟨#[c]⟩)) (hc1 : Boxed w b1 9 (.string s)) (hc2 : Boxed w b2 3 (.int .i64 0))
    (I Ix : List ByteArray → World → Prop) (hI : OwnFrom w.heap.size I) (hIx : OwnFrom w.heap.size Ix) (hS : ∀ xs A r x, I xs A → Boxed A b1 9 (.string r) → I xs (A.setCell ⟨b1, 0, none⟩ (.string x))) (h0 : I [] w) (a₁ : ByteArray → Act)
    (hassign : ∀ (l : Nat) (x : ByteArray) (W : World) (K : Act → World → Prop), K (a₁ x) W →
      assign.wpIn (Fence.wide.inRound l) (n - 1 - 1) Tryd.prog (Exit.then K (fun _ _ _ => False)) { tmps := (ps.zip #[.string x]).foldl (fun t (p, v) => t.setIfInBounds p v) a.tmps, defers := [] } W)
    (hbody : ∀ (l : Nat) (pre : List ByteArray) (x r : ByteArray) (W : World), I pre W → pre ++ [x] <+: partsB c s → pre.length ≤ s.size → x.size ≤ s.size → w.heap.size ≤ W.heap.size → Boxed W b0 9 (.string ⟨#[c]⟩) → Boxed W b1 9 (.string r) → Boxed W b2 3 (.int .i64 0) →
      body.wpIn (Fence.wide.inRound l) (n - 1 - 1) Tryd.prog (stopPost w.heap.size b0 b1 b2 I Ix (pre ++ [x]) W) (a₁ x) W)
    (hdone : ∀ (D : Nat) (W : World), w.heap.size ≤ D → I (partsB c s) W → W.heap[D]? = some (.deferred (some [])) → Q .normal { a with defers := { target := .collected D, args := #[] } :: a.defers } W)
    (hstop : ∀ (D : Nat) (pre : List ByteArray) (W : World), w.heap.size ≤ D → pre <+: partsB c s → Ix pre W → W.heap[D]? = some (.deferred (some [])) → Code.ret.wpIn Fence.wide n Tryd.prog Q { a with defers := { target := .collected D, args := #[] } :: a.defers } W) :
    (Code.rangeFunc g ps assign body).wpIn Fence.wide n Tryd.prog Q a w := by
  have l0 := hc0.lt
  have l1 := hc1.lt
  have l2 := hc2.lt
  refine wpIn_rangeFunc ?_
  intro fn hfn
  rw [show Fence.wide.round = none from rfl]
  obtain ⟨rec, hrec⟩ : ∃ rec : LoopState → Option Code → Loop, rec = fun st pe => { state := st, pending := pe, fn, tmps := a.tmps, params := ps, assign, body, defers := w.heap.size } := ⟨_, rfl⟩
  obtain ⟨V, hV⟩ : ∃ V, (w.alloc (.deferred (some []))).alloc (.loop (rec .ready none)) = V := ⟨_, rfl⟩
  have sz : V.heap.size = w.heap.size + 2 := by rw [← hV]; simp
  have vl : V.heap[w.heap.size + 1]? = some (.loop (rec .ready none)) := by
    rw [← hV]
    have := World.alloc_heap_new (w.alloc (.deferred (some []))) (.loop (rec .ready none))
    rwa [World.size_alloc] at this
  have vd : V.heap[w.heap.size]? = some (.deferred (some [])) := by
    rw [← hV]
    exact (Below.heap_alloc _ _ _ (by simp)).trans (World.alloc_heap_new w _)
  have vI : I [] V := by
    rw [← hV]
    exact hI _ _ _ _ (hI _ _ _ _ h0 (World.grownBy_alloc w _ none) (fun r e => by cases e)) (World.grownBy_alloc _ _ none) (fun r e => by cases e)
  have v0 : Boxed V b0 9 (.string ⟨#[c]⟩) := by rw [← hV]; exact (hc0.alloc _).alloc _
  have v1 : Boxed V b1 9 (.string s) := by rw [← hV]; exact (hc1.alloc _).alloc _
  have v2 : Boxed V b2 3 (.int .i64 0) := by rw [← hV]; exact (hc2.alloc _).alloc _
  refine ⟨w.heap.size + 1, [{ target := .collected w.heap.size, args := #[] }], V, { target := .fn (.func 96) #[.pointer (some ⟨b0, 0, none⟩), .pointer (some ⟨b1, 0, none⟩), .pointer (some ⟨b2, 0, none⟩)], args := #[.func (.yield (w.heap.size + 1)) #[] #[]] }, V, 96,
    #[.func (.yield (w.heap.size + 1)) #[] #[], .pointer (some ⟨b0, 0, none⟩), .pointer (some ⟨b1, 0, none⟩), .pointer (some ⟨b2, 0, none⟩)], V, ?_, ?_, ?_, ?_, fun _ => by omega, ?_⟩
  · rw [← hV, hrec]; exact run_enterLoop_outer _ _ _ _ _
  · simp only [resolve, hg]
    simp [go_sem]
  · intro f' _; trivial
  · simp [invoke, go_sem]
  · refine (split_stops (n - 1) h1 (w.heap.size + 1) b0 b1 b2 c s hs
      (fun pre W => I pre W ∧ w.heap.size ≤ W.heap.size ∧ W.heap[w.heap.size + 1]? = some (.loop (rec .ready none)) ∧ W.heap[w.heap.size]? = some (.deferred (some [])))
      (fun pre W => Ix pre W ∧ w.heap.size ≤ W.heap.size ∧ W.heap[w.heap.size + 1]? = some (.loop (rec .done (some .ret))) ∧ W.heap[w.heap.size]? = some (.deferred (some []))) V h01 h12 ?_ ?_ v0 v1 v2 ⟨vI, by omega, vl, vd⟩).mono ?_
    · rintro xs A r x ⟨i1, i2, i3, i4⟩ hbx
      have other : ∀ k, k ≠ b1 → (A.setCell ⟨b1, 0, none⟩ (.string x)).heap[k]? = A.heap[k]? := fun k hk => Below.heap_setCell _ _ _ k hk
      exact ⟨hS _ _ _ _ i1 hbx, Nat.le_trans i2 (by simp), (other _ (by omega)).trans i3, (other _ (by omega)).trans i4⟩
    · rintro pre x r W ⟨i1, i2, i3, i4⟩ hpx hlen hx y0 y1 y2
      have hlt : w.heap.size + 1 < W.heap.size := (Array.getElem?_eq_some_iff.1 i3).1
      have hy := run_yield (P := Tryd.prog) (args := #[.string x]) i3 (by rw [hrec]; exact hps.symm)
      rw [hrec] at hy
      refine ⟨fn, _, assign, body, hy, roundIn_of_wpIn hfn (hassign _ x W _ ⟨_, run_beginRound i3 (by rw [hrec]), ?_⟩)⟩
      obtain ⟨W2, hW2⟩ : ∃ W2, W.putObj (w.heap.size + 1) (.loop { rec .ready none with state := .busy }) = W2 := ⟨_, rfl⟩
      have p1 : W2.heap[w.heap.size + 1]? = some (.loop { rec .ready none with state := .busy }) := by rw [← hW2]; exact World.putObj_heap_same hlt
      have p0 : ∀ k, k ≠ w.heap.size + 1 → W2.heap[k]? = W.heap[k]? := by intro k hk; rw [← hW2]; exact World.putObj_heap_other hk
      have p2 : I pre W2 := by
        rw [← hW2]
        exact hI _ _ _ _ i1 (grownBy_putObj' W _ _) (fun r e => by cases e; exact ⟨by omega, _, i3, rfl⟩)
      have p3 : W2.heap.size = W.heap.size := by rw [← hW2]; simp
      rw [hW2]
      refine wpIn_mono (hbody _ pre x r W2 p2 hpx hlen hx (by omega) ((p0 _ (by omega)).trans y0) ((p0 _ (by omega)).trans y1) ((p0 _ (by omega)).trans y2)) ?_
      rintro e a3 W3 hp
      cases e with
      | normal =>
        obtain ⟨k1, k2, k3, k4, k5⟩ := hp
        have q1 := k1.same _ _ (by omega) p1 rfl
        have hlt3 := (Array.getElem?_eq_some_iff.1 q1).1
        have hr := run_endRound (P := Tryd.prog) none q1
        have other : ∀ k, k ≠ w.heap.size + 1 → (W3.putObj (w.heap.size + 1) (.loop (rec .ready none))).heap[k]? = W3.heap[k]? := fun k hk => World.putObj_heap_other hk
        refine ⟨_, _, ?_, .inl ⟨rfl, ⟨hI _ _ _ _ k5 (grownBy_putObj' W3 (w.heap.size + 1) (.loop (rec .ready none))) (fun r e => by cases e; exact ⟨by omega, _, q1, rfl⟩), ?_, World.putObj_heap_same hlt3, ?_⟩, ?_, ?_, ?_⟩⟩
        · rw [hrec] at hr ⊢; exact hr
        · have := k1.size; simp; omega
        · exact (other _ (by omega)).trans (k1.same _ _ (Nat.le_refl _) ((p0 _ (by omega)).trans i4) rfl)
        · exact (other _ (by omega)).trans (k2.trans (p0 _ (by omega)))
        · exact (other _ (by omega)).trans (k3.trans (p0 _ (by omega)))
        · exact (other _ (by omega)).trans (k4.trans (p0 _ (by omega)))
      | ret =>
        obtain ⟨k1, k5⟩ := hp
        have q1 := k1.same _ _ (by omega) p1 rfl
        have hlt3 := (Array.getElem?_eq_some_iff.1 q1).1
        have hr := run_endRound (P := Tryd.prog) (some .ret) q1
        refine ⟨_, _, ?_, .inr ⟨rfl, hIx _ _ _ _ k5 (grownBy_putObj' W3 (w.heap.size + 1) (.loop (rec .done (some .ret)))) (fun r e => by cases e; exact ⟨by omega, _, q1, rfl⟩), ?_, World.putObj_heap_same hlt3, ?_⟩⟩
        · rw [hrec] at hr ⊢; exact hr
        · have := k1.size; simp; omega
        · exact (World.putObj_heap_other (by omega)).trans (k1.same _ _ (Nat.le_refl _) ((p0 _ (by omega)).trans i4) rfl)
      | exit id => exact hp.elim
      | goto t => exact hp.elim
      | panic ch => exact hp.elim
      | outgrown => exact hp.elim
    · rintro e W2 ⟨⟨v, rfl⟩, ⟨i1, i2, i3, i4⟩ | ⟨pre, hpre, i1, i2, i3, i4⟩⟩
      · have he := run_endLoop (P := Tryd.prog) i3 (by rw [hrec]; simp)
        rw [hrec] at he
        refine ⟨none, _, he, ?_⟩
        refine hdone _ _ (Nat.le_refl _) (hI _ _ _ _ i1 (grownBy_putObj' W2 (w.heap.size + 1) _) (fun r e => by cases e; exact ⟨by omega, _, i3, rfl⟩)) ((World.putObj_heap_other (by omega)).trans i4)
      · have he := run_endLoop (P := Tryd.prog) i3 (by rw [hrec]; simp)
        rw [hrec] at he
        refine ⟨some .ret, _, he, ?_⟩
        exact hstop _ _ _ (Nat.le_refl _) hpre (hIx _ _ _ _ i1 (grownBy_putObj' W2 (w.heap.size + 1) _) (fun r e => by cases e; exact ⟨by omega, _, i3, rfl⟩)) ((World.putObj_heap_other (by omega)).trans i4)
end Go.Proofs.YtheiehbfbgjgpabDoor

namespace Go.Proofs.YtheiehbfbgjgpabDoor
open Go.RowKit Go.Shelf
set_option maxHeartbeats 1000000
set_option maxRecDepth 100000

/-- What lies at or behind B is as it lay. -/
structure KeepHi (B : Nat) (W W' : World) : Prop where
  size : W.heap.size ≤ W'.heap.size
  same : ∀ k, B ≤ k → k < W.heap.size → W'.heap[k]? = W.heap[k]?
theorem KeepHi.refl (B : Nat) (W : World) : KeepHi B W W := ⟨Nat.le_refl _, fun _ _ _ => rfl⟩
theorem KeepHi.trans {B : Nat} {X Y Z : World} (h : KeepHi B X Y) (k : KeepHi B Y Z) : KeepHi B X Z :=
  ⟨Nat.le_trans h.size k.size, fun i hB hi => (k.same i hB (Nat.lt_of_lt_of_le hi h.size)).trans (h.same i hB hi)⟩
theorem KeepHi.below {B : Nat} {X Y : World} (h : Below X.heap.size X Y) : KeepHi B X Y := ⟨h.size, fun i _ hi => h.block i hi⟩
theorem KeepHi.up {B C : Nat} {X Y : World} (h : KeepHi B X Y) (hc : B ≤ C) : KeepHi C X Y := ⟨h.size, fun i hB hi => h.same i (Nat.le_trans hc hB) hi⟩
theorem KeepHi.from {B : Nat} {X Y : World} (h : KeepHi B X Y) : KeepsFrom B X Y := ⟨h.size, fun k _ hB hk _ => (h.same k hB (Array.getElem?_eq_some_iff.1 hk).1).trans hk⟩

/-- What speaks of no block at or behind B. -/
def Far (B : Nat) (J : List ByteArray → World → Prop) : Prop := ∀ s A A' row, J s A → A.grownBy A' row → (∀ r, row = some r → B ≤ r) → J s A'
theorem Far.below {B : Nat} {J : List ByteArray → World → Prop} (h : Far B J) {s : List ByteArray} {X Y : World} (hj : J s X) (hb : Below X.heap.size X Y) : J s Y :=
  h s X Y none hj ⟨hb.os, hb.tape, hb.output, hb.size, fun i hi _ => hb.block i hi⟩ (fun r e => by cases e)

/-- The contract of such an iterator. -/
def SeqFar (n : Nat) (gf : Nat) (lb : Array Value) (encs : ByteArray → Array Value) (M : World → Prop) (xs : List ByteArray) : Prop :=
  ∀ (l : Nat) (J Jx : List ByteArray → World → Prop) (W : World), (∀ pre A, J pre A → M A) → Far W.heap.size J → Far W.heap.size Jx →
    (∀ pre x W1, J pre W1 → pre ++ [x] <+: xs → W.heap.size ≤ W1.heap.size → YieldAt Fence.wide (n - 1) Tryd.prog l (encs x) W1 fun e W' =>
      ∃ b : Bool, e = .returned (.bool b) ∧ KeepHi W.heap.size W1 W' ∧ ((b = true ∧ J (pre ++ [x]) W') ∨ (b = false ∧ Jx (pre ++ [x]) W'))) →
    J [] W →
    CallsIn Fence.wide n Tryd.prog gf (#[.func (.yield l) #[] #[]] ++ lb) W fun e W' => (∃ v, e = .returned v) ∧ (J xs W' ∨ ∃ pre, pre <+: xs ∧ Jx pre W')

def farPost (B : Nat) (I : List ByteArray → World → Prop) (Ix : Code → List ByteArray → World → Prop) (xs : List ByteArray) (W : World) : Exit → Act → World → Prop
  | .normal, _, W' => KeepHi B W W' ∧ I xs W'
  | .ret, _, W' => KeepHi B W W' ∧ Ix .ret xs W'
  | .exit id, _, W' => KeepHi B W W' ∧ Ix (.exit id) xs W'
  | _, _, _ => False

theorem range_far {n : Nat} {g : Operand} {ps : Array Tmp} {assign body : Code} {Q : Exit → Act → World → Prop} {a : Act} {w : World} (h1 : 1 ≤ n) {gf : Nat} {lb : Array Value}
    (hg : a.eval g = .func (.func gf) #[] lb) (eg : ∀ args w, (callFunc gf args).run Tryd.prog w = .ok (.enter gf args) w) {encs : ByteArray → Array Value} {M : World → Prop} {xs : List ByteArray}
    (hseq : SeqFar (n - 1) gf lb encs M xs) (hps : ∀ x, (encs x).size = ps.size)
    (I : List ByteArray → World → Prop) (Ix : Code → List ByteArray → World → Prop) (hM : ∀ pre W, I pre W → M W) (hI : Far w.heap.size I) (hIx : ∀ c, Far w.heap.size (Ix c)) (h0 : I [] w) (a₁ : ByteArray → Act)
    (hassign : ∀ (l : Nat) (x : ByteArray) (W : World) (K : Act → World → Prop), K (a₁ x) W →
      assign.wpIn (Fence.wide.inRound l) (n - 1 - 1) Tryd.prog (Exit.then K (fun _ _ _ => False)) { tmps := (ps.zip (encs x)).foldl (fun t (p, v) => t.setIfInBounds p v) a.tmps, defers := [] } W)
    (hbody : ∀ (l : Nat) (pre : List ByteArray) (x : ByteArray) (W : World), I pre W → pre ++ [x] <+: xs → w.heap.size ≤ W.heap.size → body.wpIn (Fence.wide.inRound l) (n - 1 - 1) Tryd.prog (farPost w.heap.size I Ix (pre ++ [x]) W) (a₁ x) W)
    (hdone : ∀ (D : Nat) (W : World), w.heap.size ≤ D → I xs W → W.heap[D]? = some (.deferred (some [])) → Q .normal { a with defers := { target := .collected D, args := #[] } :: a.defers } W)
    (hstop : ∀ (D : Nat) (c : Code) (pre : List ByteArray) (W : World), w.heap.size ≤ D → pre <+: xs → Ix c pre W → W.heap[D]? = some (.deferred (some [])) → c.wpIn Fence.wide n Tryd.prog Q { a with defers := { target := .collected D, args := #[] } :: a.defers } W) :
    (Code.rangeFunc g ps assign body).wpIn Fence.wide n Tryd.prog Q a w := by
  refine wpIn_rangeFunc ?_
  intro fn hfn
  rw [show Fence.wide.round = none from rfl]
  obtain ⟨rec, hrec⟩ : ∃ rec : LoopState → Option Code → Loop, rec = fun st pe => { state := st, pending := pe, fn, tmps := a.tmps, params := ps, assign, body, defers := w.heap.size } := ⟨_, rfl⟩
  obtain ⟨W1, hW1⟩ : ∃ W1, (w.alloc (.deferred (some []))).alloc (.loop (rec .ready none)) = W1 := ⟨_, rfl⟩
  have sz : W1.heap.size = w.heap.size + 2 := by rw [← hW1]; simp
  have hL1 : W1.heap[w.heap.size + 1]? = some (.loop (rec .ready none)) := by
    rw [← hW1]; have := World.alloc_heap_new (w.alloc (.deferred (some []))) (.loop (rec .ready none)); rwa [World.size_alloc] at this
  have hK1 : W1.heap[w.heap.size]? = some (.deferred (some [])) := by
    rw [← hW1]; exact (Below.heap_alloc _ _ _ (by simp)).trans (World.alloc_heap_new w _)
  have hI1 : I [] W1 := by
    rw [← hW1]
    exact hI _ _ _ _ (hI _ _ _ _ h0 (World.grownBy_alloc w _ none) (fun r e => by cases e)) (World.grownBy_alloc _ _ none) (fun r e => by cases e)
  refine ⟨w.heap.size + 1, [{ target := .collected w.heap.size, args := #[] }], W1, { target := .fn (.func gf) lb, args := #[.func (.yield (w.heap.size + 1)) #[] #[]] }, W1, gf,
    #[.func (.yield (w.heap.size + 1)) #[] #[]] ++ lb, W1, ?_, ?_, ?_, ?_, fun _ => h1, ?_⟩
  · rw [← hW1, hrec]; exact run_enterLoop_outer _ _ _ _ _
  · simp only [resolve, hg]
    simp [go_sem]
  · intro f' _; trivial
  · simp [invoke, go_sem, eg]
  · refine (hseq (w.heap.size + 1)
      (fun pre W => I pre W ∧ W.heap[w.heap.size + 1]? = some (.loop (rec .ready none)) ∧ W.heap[w.heap.size]? = some (.deferred (some [])))
      (fun pre W => ∃ c, Ix c pre W ∧ W.heap[w.heap.size + 1]? = some (.loop (rec .done (some c))) ∧ W.heap[w.heap.size]? = some (.deferred (some [])))
      W1 (fun pre A h => hM _ _ h.1)
      (fun s A B row hs hg' hr => ⟨hI s A B row hs.1 hg' (fun r e => by have := hr r e; omega), (hg'.block _ (Array.getElem?_eq_some_iff.1 hs.2.1).1 (fun e => by have := hr _ e.symm; omega)).trans hs.2.1, (hg'.block _ (Array.getElem?_eq_some_iff.1 hs.2.2).1 (fun e => by have := hr _ e.symm; omega)).trans hs.2.2⟩)
      (fun s A B row hs hg' hr => by
        obtain ⟨c, hc, hl, hk⟩ := hs
        exact ⟨c, hIx c s A B row hc hg' (fun r e => by have := hr r e; omega), (hg'.block _ (Array.getElem?_eq_some_iff.1 hl).1 (fun e => by have := hr _ e.symm; omega)).trans hl, (hg'.block _ (Array.getElem?_eq_some_iff.1 hk).1 (fun e => by have := hr _ e.symm; omega)).trans hk⟩)
      ?_ ⟨hI1, hL1, hK1⟩).mono ?_
    · rintro pre x W ⟨hi, hl, hk⟩ hpx hsW
      have hlt : w.heap.size + 1 < W.heap.size := (Array.getElem?_eq_some_iff.1 hl).1
      have hy := run_yield (P := Tryd.prog) (args := encs x) hl (by rw [hrec]; exact hps x)
      rw [hrec] at hy
      refine ⟨fn, _, assign, body, hy, roundIn_of_wpIn hfn (hassign _ x W _ ⟨_, run_beginRound hl (by rw [hrec]), ?_⟩)⟩
      have hl2 : (W.putObj (w.heap.size + 1) (.loop { rec .ready none with state := .busy })).heap[w.heap.size + 1]? = some (.loop { rec .ready none with state := .busy }) := World.putObj_heap_same hlt
      have ho2 : ∀ k, k ≠ w.heap.size + 1 → (W.putObj (w.heap.size + 1) (.loop { rec .ready none with state := .busy })).heap[k]? = W.heap[k]? := fun k hk => World.putObj_heap_other hk
      have hs2 : (W.putObj (w.heap.size + 1) (.loop { rec .ready none with state := .busy })).heap.size = W.heap.size := by simp
      have hi2 : I pre (W.putObj (w.heap.size + 1) (.loop { rec .ready none with state := .busy })) := hI _ _ _ (some (w.heap.size + 1)) hi (grownBy_putObj' W _ _) (fun r e => by cases e; omega)
      refine wpIn_mono (hbody _ pre x _ hi2 hpx (by simp; omega)) ?_
      have fin : ∀ (jump : Option Code) (W3 : World), KeepHi w.heap.size (W.putObj (w.heap.size + 1) (.loop { rec .ready none with state := .busy })) W3 →
          (Instr.endRound (w.heap.size + 1) jump).run Tryd.prog W3 = .ok (.bool jump.isNone) (W3.putObj (w.heap.size + 1) (.loop (rec (if jump.isNone then .ready else .done) jump))) ∧
          (W3.putObj (w.heap.size + 1) (.loop (rec (if jump.isNone then .ready else .done) jump))).heap[w.heap.size + 1]? = some (.loop (rec (if jump.isNone then .ready else .done) jump)) ∧
          (W3.putObj (w.heap.size + 1) (.loop (rec (if jump.isNone then .ready else .done) jump))).heap[w.heap.size]? = some (.deferred (some [])) ∧
          KeepHi W1.heap.size W (W3.putObj (w.heap.size + 1) (.loop (rec (if jump.isNone then .ready else .done) jump))) := fun jump W3 hk3 => by
        have hl3 := (hk3.same (w.heap.size + 1) (by omega) (by omega)).trans hl2
        have hd3 := (hk3.same w.heap.size (by omega) (by omega)).trans ((ho2 _ (by omega)).trans hk)
        have := run_endRound (P := Tryd.prog) jump hl3
        rw [hrec] at this ⊢
        refine ⟨this, World.putObj_heap_same (Array.getElem?_eq_some_iff.1 hl3).1, (World.putObj_heap_other (by omega)).trans hd3, by have := hk3.size; simp at this ⊢; omega, fun k hk hlk => ?_⟩
        exact (World.putObj_heap_other (by omega)).trans ((hk3.same k (by omega) (by omega)).trans (ho2 k (by omega)))
      rintro e a3 W3 hp
      cases e with
      | normal =>
        obtain ⟨hk3, hi3⟩ := hp
        obtain ⟨hr, hl4, hk4, hkk⟩ := fin none W3 hk3
        exact ⟨_, _, hr, true, rfl, hkk, .inl ⟨rfl, hI _ _ _ (some (w.heap.size + 1)) hi3 (grownBy_putObj' _ _ _) (fun r e => by cases e; omega), hl4, hk4⟩⟩
      | ret =>
        obtain ⟨hk3, hi3⟩ := hp
        obtain ⟨hr, hl4, hk4, hkk⟩ := fin (some .ret) W3 hk3
        exact ⟨_, _, hr, false, rfl, hkk, .inr ⟨rfl, .ret, hIx _ _ _ _ (some (w.heap.size + 1)) hi3 (grownBy_putObj' _ _ _) (fun r e => by cases e; omega), hl4, hk4⟩⟩
      | exit id =>
        obtain ⟨hk3, hi3⟩ := hp
        obtain ⟨hr, hl4, hk4, hkk⟩ := fin (some (.exit id)) W3 hk3
        exact ⟨_, _, hr, false, rfl, hkk, .inr ⟨rfl, .exit id, hIx _ _ _ _ (some (w.heap.size + 1)) hi3 (grownBy_putObj' _ _ _) (fun r e => by cases e; omega), hl4, hk4⟩⟩
      | goto t => exact hp.elim
      | panic ch => exact hp.elim
      | outgrown => exact hp.elim
    · rintro e W2 ⟨⟨v, rfl⟩, (⟨hi, hl, hk⟩ | ⟨pre, hpre, c, hi, hl, hk⟩)⟩
      · exact ⟨none, _, by have := run_endLoop (P := Tryd.prog) hl (by rw [hrec]; simp); rw [hrec] at this; exact this, hdone _ _ (Nat.le_refl _) (hI _ _ _ (some (w.heap.size + 1)) hi (grownBy_putObj' _ _ _) (fun r e => by cases e; omega)) ((World.putObj_heap_other (by omega)).trans hk)⟩
      · exact ⟨some c, _, by have := run_endLoop (P := Tryd.prog) hl (by rw [hrec]; simp); rw [hrec] at this; exact this, hstop _ c pre _ (Nat.le_refl _) hpre (hIx c _ _ _ (some (w.heap.size + 1)) hi (grownBy_putObj' _ _ _) (fun r e => by cases e; omega)) ((World.putObj_heap_other (by omega)).trans hk)⟩
end Go.Proofs.YtheiehbfbgjgpabDoor

namespace Go.Proofs.YtheiehbfbgjgpabDoor
open Go.RowKit Go.Shelf
set_option maxHeartbeats 1000000
set_option maxRecDepth 100000

def nmT (x : ByteArray) : ByteArray := pk (nameOf x.data.toList)
def vlT (x : ByteArray) : ByteArray := pk (valL (codesOf x.data.toList))
def lastT (pre : List ByteArray) : ByteArray := match pre.getLast? with | none => ⟨#[]⟩ | some x => nmT x
theorem lastT_snoc (pre : List ByteArray) (x : ByteArray) : lastT (pre ++ [x]) = nmT x := by simp [lastT]

theorem ent_count_b : ((parts 32 NM.data.toList).length == 2231) = true := by decide +kernel
theorem ent_count : ENT.length = 2231 := by
  show (parts 32 NM.data.toList).length = 2231
  exact beq_iff_eq.1 ent_count_b

theorem pb_ent : partsB 32 NM = ENT.map pk := rfl
theorem pk_list (l : List UInt8) : (pk l).data.toList = l := by simp [pk]
theorem pre_step {pre : List ByteArray} {x : ByteArray} (h : pre ++ [x] <+: partsB 32 NM) : ∃ e r, ENT.drop pre.length = e :: r ∧ x = pk e ∧ e ∈ ENT ∧ r = ENT.drop (pre ++ [x]).length ∧ pre.length < 2231 ∧
    (pre = [] ∨ ∃ e0 ∈ ENT, lastT pre = pk (nameOf e0) ∧ ltB (nameOf e0) (nameOf e) = true) := by
  obtain ⟨q, hq⟩ := h
  rw [pb_ent] at hq
  have hlen := congrArg List.length hq
  simp at hlen
  rw [ent_count] at hlen
  have hk : pre.length < ENT.length := by rw [ent_count]; omega
  have hx : x = pk (ENT[pre.length]'hk) := by
    have h1 := congrArg (fun l => l[pre.length]?) hq
    simp [hk] at h1
    exact h1
  refine ⟨ENT[pre.length]'hk, ENT.drop (pre.length + 1), List.drop_eq_getElem_cons hk, hx, List.getElem_mem hk, by simp, by omega, ?_⟩
  rcases Nat.eq_zero_or_pos pre.length with h0 | h0
  · exact .inl (List.length_eq_zero_iff.1 h0)
  · have hk2 : pre.length - 1 < ENT.length := by omega
    refine .inr ⟨ENT[pre.length - 1]'hk2, List.getElem_mem hk2, ?_, ?_⟩
    · have h1 : (pre ++ [x] ++ q)[pre.length - 1]? = (ENT.map pk)[pre.length - 1]? := by rw [hq]
      rw [List.append_assoc] at h1
      rw [List.getElem?_append_left (by omega)] at h1
      rw [List.getElem?_map, List.getElem?_eq_getElem hk2] at h1
      have h2 : pre.getLast? = some (pk (ENT[pre.length - 1]'hk2)) := by rw [List.getLast?_eq_getElem?, h1]; rfl
      simp only [lastT, h2, nmT, pk_list]
    · exact List.pairwise_iff_getElem.1 ent_sorted _ _ hk2 hk (by omega)

theorem nm_pk (e : List UInt8) : nmT (pk e) = pk (nameOf e) := by simp only [nmT, pk_list]
theorem vl_pk (e : List UInt8) : vlT (pk e) = pk (valL (codesOf e)) := by simp only [vlT, pk_list]
theorem pk_eq (A : ByteArray) (l : List UInt8) (h : A.data.toList = l) : A = pk l := by
  subst h; rfl
theorem nm_named {e : List UInt8} (he : e ∈ ENT) {V : ByteArray} {c : Int} (h : NmP (namedR (nameOf e)) V c) : V = pk (valL (codesOf e)) ∧ c = 0 := by
  rw [named_some e he] at h
  rcases h with ⟨h1, h2⟩ | ⟨h1, _, _⟩
  · exact ⟨pk_eq _ _ (Option.some.inj h1).symm, h2⟩
  · cases h1
theorem nm_longest {e : List UInt8} (he : e ∈ ENT) {V : ByteArray} {n : Int} (h : LgP (nameOf e) n V) : n = ((nameOf e).length : Nat) := by
  rcases h with ⟨_, _, h3⟩ | ⟨e', he', h1, h2, _, h4⟩
  · exact absurd (List.prefix_refl _) (h3 e he)
  · have := h4 e he (List.prefix_refl _)
    have := h1.length_le
    omega
theorem nm_prefix {e : List UInt8} (he : e ∈ ENT) : hpB (nameOf e) = true := by
  unfold hpB
  exact List.any_eq_true.2 ⟨e, he, by simp⟩
theorem nm_pre {e s : List UInt8} (he : e ∈ ENT) (hs : s <+: nameOf e) : hpB s = true := by
  unfold hpB
  exact List.any_eq_true.2 ⟨e, he, by simpa using hs⟩
end Go.Proofs.YtheiehbfbgjgpabDoor

namespace Go.Proofs.YtheiehbfbgjgpabDoor
open Go.RowKit Go.Shelf Go.Lib
attribute [local go_sem] Oper.semAt_some
set_option maxHeartbeats 2000000
set_option maxRecDepth 100000

theorem namesCall (w : World) : Calls Tryd.prog 22 #[] w fun e w' => e = .returned (.func (.func 51) #[] #[]) ∧ w' = w := by
  go_enter Tryd.func22, Tryd.ntmps22
  go_wp2
  go_ret
  exact ⟨rfl, rfl⟩

theorem names_nil (W : World) : Sem.run Tryd.prog (binOp BinOp.eql 39 (.func (.func 51) #[] #[]) Value.nilFunc) W = .ok (.bool false) W := by kernel_rfl

/-- What holds between the rounds. -/
def TabI (w : World) (n : Int) (pre : List ByteArray) (W : World) : Prop := ∃ a : Nat, Boxed W w.heap.size 3 (.int .i64 n) ∧ Boxed W (w.heap.size + 1) 4 (.bool false) ∧ Boxed W (w.heap.size + 1 + 1) 3 (.int .i64 a) ∧
  Boxed W (w.heap.size + 1 + 1 + 1) 9 (.string (lastT pre)) ∧ Boxed W (w.heap.size + 1 + 1 + 1 + 1) 3 (.int .i64 pre.length) ∧ AtEnt a (ENT.drop pre.length) ∧ Below w.heap.size w W
theorem TabI.below {w : World} {n : Int} {pre : List ByteArray} {W : World} (h : TabI w n pre W) : Below w.heap.size w W := by
  obtain ⟨_, _, _, _, _, _, _, h⟩ := h
  exact h
/-- What holds where the loop is left. -/
def TabX (w : World) (n : Int) (c : Code) (_pre : List ByteArray) (W : World) : Prop := c = .exit 0 ∧ 0 ≤ n ∧ ∃ (a q : Int), Boxed W w.heap.size 3 (.int .i64 n) ∧ Boxed W (w.heap.size + 1) 4 (.bool false) ∧ Boxed W (w.heap.size + 1 + 1) 3 (.int .i64 a) ∧
  Boxed W (w.heap.size + 1 + 1 + 1 + 1) 3 (.int .i64 q) ∧ Below w.heap.size w W
theorem tabI_far (w : World) (n : Int) (B : Nat) (hB : w.heap.size + 5 ≤ B) : Far B (TabI w n) := by
  rintro s A A' row ⟨a, b0, b1, b2, b3, b4, hat, hb⟩ hg hr
  exact ⟨a, b0.kept hg (fun e => by have := hr _ e.symm; omega), b1.kept hg (fun e => by have := hr _ e.symm; omega), b2.kept hg (fun e => by have := hr _ e.symm; omega), b3.kept hg (fun e => by have := hr _ e.symm; omega), b4.kept hg (fun e => by have := hr _ e.symm; omega), hat,
    hb.grown hg hb.size (fun k e => by have := hr _ e; omega)⟩
theorem tabX_far (w : World) (n : Int) (c : Code) (B : Nat) (hB : w.heap.size + 5 ≤ B) : Far B (TabX w n c) := by
  rintro s A A' row ⟨hc, hn, a, q, b0, b1, b2, b4, hb⟩ hg hr
  exact ⟨hc, hn, a, q, b0.kept hg (fun e => by have := hr _ e.symm; omega), b1.kept hg (fun e => by have := hr _ e.symm; omega), b2.kept hg (fun e => by have := hr _ e.symm; omega), b4.kept hg (fun e => by have := hr _ e.symm; omega),
    hb.grown hg hb.size (fun k e => by have := hr _ e; omega)⟩

theorem textTable_in (m : Int) (k : Nat) (hk : 8 ≤ k) (HSEQ : SeqFar (k - 1) 51 #[] (fun x => #[.string (nmT x), .string (vlT x)]) (Ml m) (partsB 32 NM)) (n : Int) (hn0 : -9223372036854775808 ≤ n) (hn1 : n ≤ 9223372036854775807) (w : World) (hm : Ml m w) :
    CallsIn Fence.wide k Tryd.prog 5 #[.int .i64 n] w fun e w' => e = .returned (.bool true) ∧ Below w.heap.size w w' := by
  have h1 : 1 ≤ k := by omega
  have HM := Lib.hid hm
  have HQ := Lib.hid HSEQ
  clear hm HSEQ
  refine callsIn_of_wp_marks Tryd.func5 rfl trivial ?_ rfl
  simp only [Tryd.ntmps5, List.size_toArray, List.length_cons, List.length_nil, Nat.reduceAdd, Nat.reduceSub, Array.replicate_succ, Array.replicate_zero, List.push_toArray, List.append_toArray, List.nil_append, List.cons_append]
  gi_wp2_with fail
  refine ⟨trivial, ?_⟩
  refine (callsIn_wide.2 (namesCall _)).mono ?_
  rintro e W2 ⟨rfl, rfl⟩
  have hnil := names_nil
  gi_wp2_with fail
  clear hnil
  generalize hV0 : ((((w.alloc _).alloc _).alloc _).alloc _).alloc _ = V0
  have z0 : Boxed V0 w.heap.size 3 (.int .i64 n) := by rw [← hV0]; exact ((((Boxed.new _ _ _).alloc _).alloc _).alloc _).alloc _
  have z1 : Boxed V0 (w.heap.size + 1) 4 (.bool false) := by rw [← hV0]; exact (((boxed_new _ _ _ _ (by simp)).alloc _).alloc _).alloc _
  have z2 : Boxed V0 (w.heap.size + 1 + 1) 3 (.int .i64 0) := by rw [← hV0]; exact ((boxed_new _ _ _ _ (by simp)).alloc _).alloc _
  have z3 : Boxed V0 (w.heap.size + 1 + 1 + 1) 9 (.string ⟨#[]⟩) := by rw [← hV0]; exact (boxed_new _ _ _ _ (by simp)).alloc _
  have z4 : Boxed V0 (w.heap.size + 1 + 1 + 1 + 1) 3 (.int .i64 0) := by rw [← hV0]; exact boxed_new _ _ _ _ (by simp)
  have zb : Below w.heap.size w V0 := by rw [← hV0]; (repeat' (first | (with_reducible exact Below.refl _ _) | (with_reducible assumption) | (with_reducible refine below_alloc ?_ _) | (with_reducible refine Below.drew ?_) | (with_reducible refine below_drewN ?_ _) | (with_reducible refine Below.setCell ?_ ?_ _) | go_size | (refine below_next ?_ (by assumption))))
  have zs : V0.heap.size = w.heap.size + 5 := by rw [← hV0]; simp
  clear hV0
  refine range_far (n := k) h1 rfl (enters_of Tryd.func51 (by kernel_rfl) rfl) HQ.out (fun _ => rfl)
    (TabI w n) (TabX w n) (fun pre W h => carry HM.out h.below) (tabI_far w n _ (by omega)) (fun c => tabX_far w n c _ (by omega))
    ⟨0, z0, z1, z2, z3, z4, by rw [List.length_nil, List.drop_zero]; exact atEnt_start, zb⟩
    (fun x => { tmps := #[.int .i64 n, .pointer (some ⟨w.heap.size, 0, none⟩), .pointer (some ⟨w.heap.size + 1, 0, none⟩), .func (.func 51) #[] #[], .pointer (some ⟨w.heap.size + 1 + 1, 0, none⟩), .pointer (some ⟨w.heap.size + 1 + 1 + 1, 0, none⟩), .pointer (some ⟨w.heap.size + 1 + 1 + 1 + 1, 0, none⟩), .string (nmT x), .string (vlT x), undef, undef, undef, undef, undef, .func (.func 51) #[] #[], .func (.func 51) #[] #[], .bool false, .func (.func 51) #[] #[], .string (nmT x), .string (vlT x), undef, undef, undef, undef, undef, undef, undef, undef, undef, undef, undef, undef, undef, undef, undef, undef, undef, undef, undef, undef, undef, undef, undef, undef, undef, undef, undef, undef, undef, undef, undef, undef, undef, undef, undef, undef, undef, undef, undef, undef, undef, undef, undef, undef, undef, undef, undef, undef, undef, undef, undef, undef, undef, undef, undef, undef, undef, undef, undef, undef, undef, undef, undef, undef, undef, undef, undef, undef, undef, undef, undef, undef, undef, undef, undef, undef], defers := [] }) ?assign ?body ?done ?stop
  case assign =>
    intro l x W K hK
    gi_wp2
    exact hK
  case body =>
    rintro l pre x W ⟨a, b0, b1, b2, b3, b4, hat, hB⟩ hpx hsz
    obtain ⟨e, r, hd, rfl, he, hr, hlen, hlast⟩ := pre_step hpx
    rw [hd] at hat
    have ha : a < 29726 := by
      refine Classical.byContradiction fun h => ?_
      have := atEnt_end hat h
      cases this
    obtain ⟨e2, r2, q0, q1, q2, q3, q4, q5⟩ := atEnt_step hat ha
    obtain ⟨rfl, rfl⟩ : e = e2 ∧ r = r2 := by cases q0; exact ⟨rfl, rfl⟩
    rw [hr] at q5
    have k0 := b0.cell
    have k2 := b2.cell
    have k3 := b3.cell
    have k4 := b4.cell
    have hleni : (pre.length : Int) < 2231 := by omega
    have hleni0 : (0 : Int) ≤ (pre.length : Int) := by omega
    have HAT := Lib.hid q5
    have HE := Lib.hid (rEntry a e he q2 q3 q4)
    have HEM := Lib.hid he
    have HD := Lib.hid hd
    have HLAST := Lib.hid hlast
    have HPX := Lib.hid hpx
    have HPL := Lib.hid (show ((pre ++ [pk e]).length : Nat) = pre.length + 1 by simp)
    clear q5 hd q0 q2 q3 hat hr hlast hpx he q1
    by_cases hc : (pre.length : Int) = n
    · subst hc
      gi_wp2
      exact ⟨KeepHi.refl _ _, rfl, by omega, ⟨a, pre.length, b0, b1, b2, b4, hB⟩⟩
    · have hc1 : ((pre.length : Int) == n) = false := by rw [beq_eq_false_iff_ne]; exact hc
      have ha1 : decide ((29726 : Int) ≤ (a : Int)) = false := decide_eq_false (by omega)
      have HLEN := Lib.hid hleni
      have HA := Lib.hid ha
      obtain ⟨q, hq⟩ : ∃ q : Int, q = pre.length := ⟨_, rfl⟩
      obtain ⟨a2, ha2⟩ : ∃ a2 : Int, a2 = a := ⟨_, rfl⟩
      obtain ⟨L, hL⟩ : ∃ L, L = lastT pre := ⟨_, rfl⟩
      rw [← hq] at k4 hc1
      rw [← ha2] at k2 ha1 HE
      rw [← hL] at k3
      rw [← hq] at b4
      rw [← ha2] at b2
      rw [← hL] at b3
      have HMV : Hid (∀ W', Below W.heap.size W W' → Boxed W' w.heap.size 3 (.int .i64 n) ∧ Boxed W' (w.heap.size + 1) 4 (.bool false) ∧ Boxed W' (w.heap.size + 1 + 1) 3 (.int .i64 a2) ∧
          Boxed W' (w.heap.size + 1 + 1 + 1) 9 (.string L) ∧ Boxed W' (w.heap.size + 1 + 1 + 1 + 1) 3 (.int .i64 q) ∧ Below w.heap.size w W') := Lib.hid (fun W' h =>
        ⟨(h.block _ b0.lt).trans b0, (h.block _ b1.lt).trans b1, (h.block _ b2.lt).trans b2, (h.block _ b3.lt).trans b3, (h.block _ b4.lt).trans b4, below_next hB h⟩)
      have HQQ := Lib.hid hq
      have HA2 := Lib.hid ha2
      have HLL := Lib.hid hL
      clear hc hleni hleni0 hlen hB hsz q4 b0 b1 b2 b3 b4 ha hq ha2 hL hk hn0 hn1
      have HZS := Lib.hid zs
      clear zs
      obtain ⟨NX, hnx⟩ : ∃ NX, NX = nmT (pk e) := ⟨_, rfl⟩
      obtain ⟨VX, hvx⟩ : ∃ VX, VX = vlT (pk e) := ⟨_, rfl⟩
      rw [← hnx, ← hvx]
      have HNX := Lib.hid (hnx.trans (nm_pk e))
      have HVX := Lib.hid (hvx.trans (vl_pk e))
      clear hnx hvx
      have hcmp : (decide (0 < q) = false) ∨ (decide (0 < q) = true ∧ Op.bytesLess NX.toList L.toList = false ∧ (NX.toList == L.toList) = false) := by
        by_cases h0 : pre = []
        · exact .inl (decide_eq_false (by rw [HQQ.out, h0]; simp))
        · rcases HLAST.out with h | ⟨e0, he0, hl0, hlt0⟩
          · exact absurd h h0
          · refine .inr ⟨decide_eq_true (by rw [HQQ.out]; have := List.length_pos_iff.2 h0; omega), ?_, ?_⟩
            · rw [HNX.out, HLL.out, hl0, ByteArray.toList_eq, ByteArray.toList_eq, pk_list, pk_list]; exact ltB_asymm _ _ hlt0
            · rw [HNX.out, HLL.out, hl0, ByteArray.toList_eq, ByteArray.toList_eq, pk_list, pk_list, beq_eq_false_iff_ne]
              intro h
              rw [h, ltB_irrefl] at hlt0
              cases hlt0
      have HNM : Hid (∀ W', Below W.heap.size W W' → Calls Tryd.prog 16 #[.string NX] W' fun e w' => e = .returned (.tuple #[.string VX, .int .i64 0]) ∧ Below W'.heap.size W' w') := Lib.hid (by
        intro W' hb
        refine (named NX m W' (carry HM.out (HMV.out _ hb).2.2.2.2.2)).mono ?_
        rintro x y ⟨V, c, rfl, hp, hb'⟩
        rw [HNX.out, pk_list] at hp
        obtain ⟨rfl, rfl⟩ := nm_named HEM.out hp
        rw [HVX.out]
        exact ⟨rfl, hb'⟩)
      have hnsz : ((nameOf e).length : Int) = (NX.size : Int) := by rw [HNX.out]; simp [pk]; rfl
      have HLG : Hid (∀ W', Below W.heap.size W W' → Calls Tryd.prog 24 #[.string NX] W' fun e w' => e = .returned (.int .i64 NX.size) ∧ Below W'.heap.size W' w') := Lib.hid (by
        intro W' hb
        refine (lawLongest NX m W' (carry HM.out (HMV.out _ hb).2.2.2.2.2)).mono ?_
        rintro x y ⟨c, V, rfl, hp, hb'⟩
        rw [HNX.out, pk_list] at hp
        rw [nm_longest HEM.out hp, hnsz]
        exact ⟨rfl, hb'⟩)
      have HPF : Hid (∀ W', Below W.heap.size W W' → Calls Tryd.prog 20 #[.string NX] W' fun e w' => e = .returned (.bool true) ∧ Below W'.heap.size W' w') := Lib.hid (by
        intro W' hb
        have := hasPrefixT NX (by have := nameOf_len e; have := ent_len e HEM.out; omega) m W' (carry HM.out (HMV.out _ hb).2.2.2.2.2)
        rwa [HNX.out, pk_list, nm_prefix HEM.out, ← HNX.out] at this)
      have hw1 : wrap64 (q + 1) = ((pre ++ [pk e]).length : Int) := by
        have h1 := HQQ.out
        have h2 := HLEN.out
        rw [show wrap64 (q + 1) = q + 1 from IntWalk.wrap64_in _ (by omega), HPL.out, h1]
        rfl
      have HFIN : Hid (∀ W', Below W.heap.size W W' → TabI w n (pre ++ [pk e]) (((W'.setCell ⟨w.heap.size + 1 + 1, 0, none⟩ (.int .i64 ((a : Int) + e.length + 1))).setCell ⟨w.heap.size + 1 + 1 + 1, 0, none⟩ (.string NX)).setCell ⟨w.heap.size + 1 + 1 + 1 + 1, 0, none⟩ (.int .i64 (wrap64 (q + 1)))) ∧
          KeepHi V0.heap.size W (((W'.setCell ⟨w.heap.size + 1 + 1, 0, none⟩ (.int .i64 ((a : Int) + e.length + 1))).setCell ⟨w.heap.size + 1 + 1 + 1, 0, none⟩ (.string NX)).setCell ⟨w.heap.size + 1 + 1 + 1 + 1, 0, none⟩ (.int .i64 (wrap64 (q + 1))))) := Lib.hid (by
        intro W' hb
        obtain ⟨j0, j1, j2, j3, j4, j5⟩ := HMV.out _ hb
        refine ⟨⟨a + e.length + 1, ((j0.other (by omega) _).other (by omega) _).other (by omega) _, ((j1.other (by omega) _).other (by omega) _).other (by omega) _, ((j2.set _).other (by omega) _).other (by omega) _, ?_, ?_, HAT.out, ((j5.setCell (p := ⟨w.heap.size + 1 + 1, 0, none⟩) (by show w.heap.size ≤ w.heap.size + 1 + 1; omega) _).setCell (p := ⟨w.heap.size + 1 + 1 + 1, 0, none⟩) (by show w.heap.size ≤ w.heap.size + 1 + 1 + 1; omega) _).setCell (p := ⟨w.heap.size + 1 + 1 + 1 + 1, 0, none⟩) (by show w.heap.size ≤ w.heap.size + 1 + 1 + 1 + 1; omega) _⟩, ?_⟩
        · rw [lastT_snoc, nm_pk, ← HNX.out]
          exact ((j3.other (by omega) _).set _).other (by omega) _
        · rw [← hw1]
          exact ((j4.other (by omega) _).other (by omega) _).set _
        · refine ⟨by simpa using hb.size, fun k hk hk2 => ?_⟩
          have hz := HZS.out
          rw [Below.heap_setCell _ _ _ _ (by simp; omega), Below.heap_setCell _ _ _ _ (by simp; omega), Below.heap_setCell _ _ _ _ (by simp; omega)]
          exact hb.block k hk2)
      clear hnsz hw1
      rcases hcmp with hp1 | ⟨hp1, hle1, hle2⟩
      all_goals
        gi_wp2_with fail
        refine ⟨trivial, (fun h => by cases h), ?_⟩
        refine (CallsIn.inRound l (callsIn_wide.2 (HE.out _))).mono ?_
        rintro e1 W1 ⟨A1, rfl, hA1, hb1⟩
        obtain rfl : A1 = NX := (pk_eq _ _ hA1).trans HNX.out.symm
        have hv1 : (⟨(valL (codesOf e)).toArray⟩ : ByteArray) = VX := HVX.out.symm
        rw [hv1]
        clear hA1 hv1
        obtain ⟨j0, j1, j2, j3, j4, j5⟩ := HMV.out _ hb1
        have k0' := j0.cell
        have k2' := j2.cell
        have k3' := j3.cell
        have k4' := j4.cell
        have f2' := j2.frozen
        have f3' := j3.frozen
        have f4' := j4.frozen
        have bt := hb1
        clear j0 j1 j2 j3 j4 j5
        gi_wp2_with fail
      all_goals try
        refine ⟨trivial, (fun h => by cases h), ?_⟩
        refine (CallsIn.inRound l (callsIn_wide.2 (HNM.out _ bt))).mono ?_
        rintro e2 W2 ⟨rfl, hb2⟩
        replace bt := below_next bt hb2
        gi_wp2_with fail
        refine ⟨trivial, (fun h => by cases h), ?_⟩
        refine (CallsIn.inRound l (callsIn_wide.2 (HLG.out _ bt))).mono ?_
        rintro e2 W3 ⟨rfl, hb3⟩
        replace bt := below_next bt hb3
        gi_wp2_with fail
        refine ⟨trivial, (fun h => by cases h), ?_⟩
        refine (CallsIn.inRound l (callsIn_wide.2 (HPF.out _ bt))).mono ?_
        rintro e2 W4 ⟨rfl, hb4⟩
        replace bt := below_next bt hb4
        obtain ⟨j0, j1, j2, j3, j4, j5⟩ := HMV.out _ bt
        have m2' := j2.cell
        have m3' := j3.cell
        have m4' := j4.cell
        have n2' := j2.frozen
        have n3' := j3.frozen
        have n4' := j4.frozen
        clear j0 j1 j2 j3 j4 j5
        gi_wp2_with fail
      all_goals
        obtain ⟨g1, g2⟩ := HFIN.out _ bt
        exact ⟨g2, g1⟩
  case done =>
    rintro D W hD ⟨a, b0, b1, b2, b3, b4, hat, hB⟩ hK
    have hpl : ((partsB 32 NM).length : Int) = 2231 := by rw [pb_ent, List.length_map, ent_count]; rfl
    have hat2 : ¬ a < 29726 := by
      intro ha
      obtain ⟨e2, r2, q0, _⟩ := atEnt_step hat ha
      rw [List.drop_of_length_le (by rw [pb_ent, List.length_map]; exact Nat.le_refl _)] at q0
      cases q0
    rw [hpl] at b4
    have ha1 : decide ((a : Int) < 29726) = false := decide_eq_false (by omega)
    have HKN := Lib.hid (known m W (carry HM.out hB))
    have HD := Lib.hid hD
    have HZ := Lib.hid zs
    have k0 := b0.cell
    have k2 := b2.cell
    have k4 := b4.cell
    obtain ⟨a2, ha2⟩ : ∃ a2 : Int, a2 = a := ⟨_, rfl⟩
    rw [← ha2] at k2 ha1
    clear hat hat2 hpl hn0 hn1 hk hD zs b2 ha2
    cases hd : decide (n < 0)
    all_goals
      gi_wp2_with fail
      refine ⟨trivial, ?_⟩
      refine (callsIn_wide.2 HKN.out).mono ?_
      rintro e W3 ⟨rfl, hb3⟩
      have c1 : Boxed W3 (w.heap.size + 1) 4 (.bool false) := (hb3.block _ b1.lt).trans b1
      have kc := c1.cell
      have fc := c1.frozen
      have hs1 := c1.set (.bool true)
      have hB3 := below_next hB hb3
      have hK3 : W3.heap[D]? = some (.deferred (some [])) := (hb3.block _ (Array.getElem?_eq_some_iff.1 hK).1).trans hK
      have hK2 : (W3.setCell ⟨w.heap.size + 1, 0, none⟩ (.bool true)).heap[D]? = some (.deferred (some [])) := (Below.heap_setCell _ _ _ D (by have := HD.out; have := HZ.out; show D ≠ w.heap.size + 1; omega)).trans hK3
      clear hK hK3
      gi_wp2_with fail
      refine ⟨by simp, .inl ⟨_, _, rfl, run_takeDeferred hK2, ?_⟩⟩
      have hDn : D ≠ w.heap.size + 1 := by have := HD.out; have := HZ.out; omega
      have hcz : ∀ o, ((W3.setCell ⟨w.heap.size + 1, 0, none⟩ (.bool true)).putObj D o).cell? ⟨w.heap.size + 1, 0, none⟩ = some (.bool true) := fun o => (Boxed.cell (t := 4) (show ((W3.setCell ⟨w.heap.size + 1, 0, none⟩ (.bool true)).putObj D o).heap[w.heap.size + 1]? = _ from (World.putObj_heap_other (fun e => hDn e.symm)).trans hs1))
      refine ⟨.bool true, by simp [results, Tryd.results5, go_sem, hcz], rfl, (hB3.setCell (p := ⟨w.heap.size + 1, 0, none⟩) (by show w.heap.size ≤ w.heap.size + 1; omega) (.bool true)).trans ?_⟩
      exact belowK_b (w := w) (Nat.le_refl _) (W3.setCell ⟨w.heap.size + 1, 0, none⟩ (.bool true)) D _ _ (by have := HD.out; have := HZ.out; omega) hK2 rfl rfl

  case stop =>
    rintro D c pre W hD hpre ⟨rfl, hn, a, q, b0, b1, b2, b4, hB⟩ hK
    have hd : decide (n < 0) = false := decide_eq_false (by omega)
    have HKN := Lib.hid (known m W (carry HM.out hB))
    have HD := Lib.hid hD
    have HZ := Lib.hid zs
    have k0 := b0.cell
    have k2 := b2.cell
    have k4 := b4.cell
    clear hn0 hn1 hn hk hD zs
    gi_wp2_with fail
    refine ⟨trivial, ?_⟩
    refine (callsIn_wide.2 HKN.out).mono ?_
    rintro e W3 ⟨rfl, hb3⟩
    have c1 : Boxed W3 (w.heap.size + 1) 4 (.bool false) := (hb3.block _ b1.lt).trans b1
    have kc := c1.cell
    have fc := c1.frozen
    have hs1 := c1.set (.bool true)
    have hB3 := below_next hB hb3
    have hK3 : W3.heap[D]? = some (.deferred (some [])) := (hb3.block _ (Array.getElem?_eq_some_iff.1 hK).1).trans hK
    have hK2 : (W3.setCell ⟨w.heap.size + 1, 0, none⟩ (.bool true)).heap[D]? = some (.deferred (some [])) := (Below.heap_setCell _ _ _ D (by have := HD.out; have := HZ.out; show D ≠ w.heap.size + 1; omega)).trans hK3
    clear hK hK3
    gi_wp2_with fail
    refine ⟨by simp, .inl ⟨_, _, rfl, run_takeDeferred hK2, ?_⟩⟩
    have hDn : D ≠ w.heap.size + 1 := by have := HD.out; have := HZ.out; omega
    have hcz : ∀ o, ((W3.setCell ⟨w.heap.size + 1, 0, none⟩ (.bool true)).putObj D o).cell? ⟨w.heap.size + 1, 0, none⟩ = some (.bool true) := fun o => (Boxed.cell (t := 4) (show ((W3.setCell ⟨w.heap.size + 1, 0, none⟩ (.bool true)).putObj D o).heap[w.heap.size + 1]? = _ from (World.putObj_heap_other (fun e => hDn e.symm)).trans hs1))
    refine ⟨.bool true, by simp [results, Tryd.results5, go_sem, hcz], rfl, (hB3.setCell (p := ⟨w.heap.size + 1, 0, none⟩) (by show w.heap.size ≤ w.heap.size + 1; omega) (.bool true)).trans ?_⟩
    exact belowK_b (w := w) (Nat.le_refl _) (W3.setCell ⟨w.heap.size + 1, 0, none⟩ (.bool true)) D _ _ (by have := HD.out; have := HZ.out; omega) hK2 rfl rfl

end Go.Proofs.YtheiehbfbgjgpabDoor

namespace Go.Proofs.YtheiehbfbgjgpabDoor
open Go.RowKit Go.Shelf Go.Lib
attribute [local go_sem] Oper.semAt_some
set_option maxHeartbeats 1000000
set_option maxRecDepth 100000

def nmB (x : ByteArray) : ByteArray := pk (nameOf x.data.toList)
def vlB (x : ByteArray) : ByteArray := pk (valL (codesOf x.data.toList))
theorem pk_of (A : ByteArray) (l : List UInt8) (h : A.data.toList = l) : A = pk l := by
  subst h; rfl

theorem roundIn_any {m m' l l' : Nat} {f : FuncId} {tmps : Array Value} {assign body : Code} {w : World} {R : Ending → World → Prop} (h : RoundIn Fence.wide m Tryd.prog l f tmps assign body w R) :
    RoundIn (Fence.wide.inRound l') m' Tryd.prog l f tmps assign body w R := ⟨h.1, fun c cs _ => h.2 c cs (room_wide _)⟩

set_option maxHeartbeats 16000000 in
theorem names_in (n : Nat) (hn : 4 ≤ n) (l : Nat) (m : Int) (J Jx : List ByteArray → World → Prop) (W : World) (hM : ∀ pre A, J pre A → Ml m A) (hJ : Far W.heap.size J) (hJx : Far W.heap.size Jx)
    (hY : ∀ pre x W1, J pre W1 → pre ++ [x] <+: partsB 32 NM → W.heap.size ≤ W1.heap.size → YieldAt Fence.wide (n - 1) Tryd.prog l #[.string (nmB x), .string (vlB x)] W1 fun e W' =>
      ∃ b : Bool, e = .returned (.bool b) ∧ KeepHi W.heap.size W1 W' ∧ ((b = true ∧ J (pre ++ [x]) W') ∨ (b = false ∧ Jx (pre ++ [x]) W')))
    (h0 : J [] W) :
    CallsIn Fence.wide n Tryd.prog 51 #[.func (.yield l) #[] #[]] W fun e W' => (∃ v, e = .returned v) ∧ (J (partsB 32 NM) W' ∨ ∃ pre, pre <+: partsB 32 NM ∧ Jx pre W') := by
  have h1 : 1 ≤ n - 1 := by omega
  have hs : NM.size ≤ 100000 := by rw [nm_size]; omega
  refine callsIn_of_wp_marks Tryd.func51 rfl trivial ?_ rfl
  simp only [Tryd.ntmps51, List.size_toArray, List.length_cons, List.length_nil, Nat.reduceAdd, Nat.reduceSub, Array.replicate_succ, Array.replicate_zero, List.push_toArray, List.append_toArray, List.nil_append, List.cons_append]
  generalize hN : (ByteArray.mk (List.toArray (List.append _ _))) = N
  have HN : NM = N := by rw [← hN]; rfl
  clear hN
  rw [HN] at hs hY ⊢
  have HY := Lib.hid hY
  have HM := Lib.hid hM
  have HJ := Lib.hid hJ
  have HJx := Lib.hid hJx
  have HNM := Lib.hid HN
  clear hY hM hJ hJx HN
  gi_wp2_with fail
  refine ⟨trivial, (fun _ => by omega), ?_⟩
  refine (callsIn_wide.2 (splitSeq_at N 32 _)).mono ?_
  rintro e W2 ⟨b0, b1, b2, rfl, c0, c1, c2, h01, h12, hb0, hb1, hb9, hb2⟩
  gi_wp2_with fail
  rw [World.size_alloc] at hb0 hb1 hb9 hb2
  have hB2 : Below W.heap.size W W2 := (below_alloc (Below.refl _ _) _).trans (hb2.mono (by omega))
  have hyb : Boxed W2 W.heap.size 47 (.func (.yield l) #[] #[]) := (hb2.block W.heap.size (by omega)).trans (Boxed.new W _ _)
  have hJ2 : J [] W2 := HJ.out.below h0 hB2
  have hsz2 := hyb.lt
  refine range_stops (n := n) h1 b0 b1 b2 32 N hs rfl rfl h01 h12 c0 c1 c2
    (fun pre A => J pre A ∧ W.heap.size ≤ A.heap.size ∧ Boxed A W.heap.size 47 (.func (.yield l) #[] #[]))
    (fun pre A => Jx pre A)
    (fun s A B row hs hg hr => ⟨HJ.out _ _ _ _ hs.1 hg (fun r e => by have := (hr r e).1; omega), Nat.le_trans hs.2.1 hg.size, hs.2.2.kept hg (fun e => by have := (hr _ e.symm).1; omega)⟩)
    (fun s A B row hs hg hr => HJx.out _ _ _ _ hs hg (fun r e => by have := (hr r e).1; omega))
    (fun xs A r x h hb => ⟨HJ.out _ _ _ (some b1) h.1 (grownBy_setCell' A b1 _) (fun r e => by cases e; omega), by simpa using h.2.1, h.2.2.other (by omega) _⟩)
    ⟨hJ2, by omega, hyb⟩
    (fun x => { tmps := #[.func (.yield l) #[] #[], .pointer (some ⟨W.heap.size, 0, none⟩), .string x, undef, .func (.func 96) #[] #[.pointer (some ⟨b0, 0, none⟩), .pointer (some ⟨b1, 0, none⟩), .pointer (some ⟨b2, 0, none⟩)], .string x, undef, undef, undef, undef, undef, undef, undef, undef, undef], defers := [] }) ?assign ?body ?done ?stop
  case assign =>
    intro l x W K hK
    gi_wp2
    exact hK
  case body =>
    rintro l2 pre x r A ⟨hj, hA, hyA⟩ hpx hlen hx hsz y0 y1 y2
    have HP := Lib.hid (parse x (by omega) m A (HM.out _ _ hj))
    have HPX := Lib.hid hpx
    clear hpx
    gi_wp2_with fail
    refine ⟨trivial, (fun _ => by omega), ?_⟩
    refine (CallsIn.inRound l2 (callsIn_wide.2 HP.out)).mono ?_
    rintro e A2 ⟨N1, C1, rfl, hN1, hC1, hb3⟩
    have hy3 : Boxed A2 W.heap.size 47 (.func (.yield l) #[] #[]) := (hb3.block _ hyA.lt).trans hyA
    have hy3l := hy3.lt
    have hc3 : C1.size ≤ 100000 := by have := codesOf_len x.data.toList; rw [← hC1, Array.length_toList, Array.length_toList] at this; have e1 : C1.data.size = C1.size := rfl; have e2 : x.data.size = x.size := rfl; omega
    have eN : N1 = nmB x := pk_of _ _ hN1
    have hC2 := Lib.hid hC1
    have hN2 := Lib.hid eN
    have kA := hy3.cell
    clear hN1 hC1 eN
    have HV := Lib.hid (value N1 C1 hc3)
    gi_wp2_with fail
    have k0 : (A2.alloc (.cells #[.string N1, .string C1] 63)).cell? ⟨A2.heap.size, 0, none⟩ = some (.string N1) := World.cell?_alloc_at _ _ _ _ rfl
    have k1 : (A2.alloc (.cells #[.string N1, .string C1] 63)).cell? ⟨A2.heap.size, 1, none⟩ = some (.string C1) := World.cell?_alloc_at _ _ _ _ rfl
    have k2 := (hy3.alloc (.cells #[.string N1, .string C1] 63)).cell
    have hb4 : Below A.heap.size A (A2.alloc (.cells #[.string N1, .string C1] 63)) := below_alloc hb3 _
    have hl4 : A2.heap.size < (A2.alloc (.cells #[.string N1, .string C1] 63)).heap.size := by simp
    have hz4 : W.heap.size < (A2.alloc (.cells #[.string N1, .string C1] 63)).heap.size := by simp; omega
    generalize A2.alloc (.cells #[.string N1, .string C1] 63) = A3 at k0 k1 k2 hb4 hl4 hz4 ⊢
    generalize A2.heap.size = B2 at k0 k1 hl4 ⊢
    clear kA
    have HVC : Hid (CallsIn (Fence.wide.inRound l2) (n - 1 - 1 - 1) Tryd.prog 44 #[.agg #[.string N1, .string C1]] A3.drew fun e A4 => e = .returned (.string (vlB x)) ∧
        A4.cell? ⟨B2, 0, none⟩ = some (.string N1) ∧ A4.cell? ⟨B2, 1, none⟩ = some (.string C1) ∧ A4.cell? ⟨W.heap.size, 0, none⟩ = some (.func (.yield l) #[] #[]) ∧ Below A.heap.size A A4) := Lib.hid (by
      refine (CallsIn.inRound l2 (callsIn_wide.2 (HV.out A3.drew))).mono ?_
      rintro e A4 ⟨V, rfl, hV, hb5⟩
      refine ⟨by rw [pk_of V _ (hV.trans (by rw [hC2.out]))]; rfl, (hb5.cell (p := ⟨B2, 0, none⟩) (by simpa using hl4)).trans (by simpa [go_sem] using k0), (hb5.cell (p := ⟨B2, 1, none⟩) (by simpa using hl4)).trans (by simpa [go_sem] using k1),
        (hb5.cell (p := ⟨W.heap.size, 0, none⟩) (by simpa using hz4)).trans (by simpa [go_sem] using k2), below_next (Below.drew hb4) hb5⟩)
    have HYA : Hid (∀ A4, Below A.heap.size A A4 → YieldAt Fence.wide (n - 1) Tryd.prog l #[.string N1, .string (vlB x)] A4 fun e W' =>
      ∃ b : Bool, e = .returned (.bool b) ∧ KeepHi W.heap.size A4 W' ∧ ((b = true ∧ J (pre ++ [x]) W') ∨ (b = false ∧ Jx (pre ++ [x]) W'))) := Lib.hid (by
      intro A4 hb6
      rw [hN2.out]
      exact HY.out pre x A4 (HJ.out.below hj hb6) HPX.out (Nat.le_trans hA hb6.size))
    gi_region_with (first
      | (refine ⟨trivial, (fun _ => by omega), ?_⟩; refine HVC.out.mono ?_; rintro e A4 ⟨rfl, q0, q1, q2, hb6⟩; obtain ⟨fn, tmps, assign, body, hy, hR⟩ := HYA.out A4 hb6)
      | (refine ⟨(fun _ => by omega), ?_⟩; refine (roundIn_any hR).mono ?_; rintro e W3 ⟨b, rfl, hk5, hor⟩))
    all_goals
      have kk : KeepHi W.heap.size A W3 := (KeepHi.below hb6).trans hk5
      have e0 := kk.same b0 (by omega) y0.lt
      have e1 := kk.same b1 (by omega) y1.lt
      have e2 := kk.same b2 (by omega) y2.lt
      have ey := kk.same W.heap.size (Nat.le_refl _) hyA.lt
      have es := kk.size
      rcases hor with ⟨rfl, hj3⟩ | ⟨rfl, hj3⟩
      · gi_wp2
        exact ⟨(kk.up (by omega)).from, e0, e1, e2, hj3, by omega, ey.trans hyA⟩
      · gi_wp2
        exact ⟨(kk.up (by omega)).from, hj3⟩
  case done =>
    rintro D A hD ⟨hj, hA, hyA⟩ hK
    gi_wp2_with fail
    refine ⟨by simp, .inl ⟨_, _, rfl, run_takeDeferred hK, ?_⟩⟩
    exact ⟨_, results_none rfl _ _ _, ⟨_, rfl⟩, .inl (HJ.out _ _ _ (some D) hj (grownBy_putObj' _ _ _) (fun r e => by cases e; omega))⟩
  case stop =>
    rintro D pre A hD hpre hj hK
    gi_wp2_with fail
    refine ⟨by simp, .inl ⟨_, _, rfl, run_takeDeferred hK, ?_⟩⟩
    exact ⟨_, results_none rfl _ _ _, ⟨_, rfl⟩, .inr ⟨pre, hpre, HJx.out _ _ _ (some D) hj (grownBy_putObj' _ _ _) (fun r e => by cases e; omega)⟩⟩
end Go.Proofs.YtheiehbfbgjgpabDoor

namespace Go.Proofs.YtheiehbfbgjgpabDoor
open Go.RowKit Go.Shelf
set_option maxHeartbeats 2000000

theorem names_seq (m : Int) : SeqFar 7 51 #[] (fun x => #[.string (nmT x), .string (vlT x)]) (Ml m) (partsB 32 NM) :=
  fun l J Jx W hM hJ hJx hY h0 => names_in 7 (by omega) l m J Jx W hM hJ hJx hY h0

theorem textTable (n : Int) (h0 : -9223372036854775808 ≤ n) (h1 : n ≤ 9223372036854775807) (m : Int) (w : World) (hm : Ml m w) :
    Calls Tryd.prog 5 #[.int .i64 n] w fun e w' => e = .returned (.bool true) ∧ Below w.heap.size w w' :=
  callsIn_wide.1 (textTable_in m 8 (by omega) (names_seq m) n h0 h1 w hm)
end Go.Proofs.YtheiehbfbgjgpabDoor

namespace Go.Proofs.YtheiehbfbgjgpabDoor
open Go.RowKit Go.Shelf
set_option maxHeartbeats 1000000
set_option maxRecDepth 100000

theorem behind {e : List UInt8} (he : e ∈ ENT) {T V : ByteArray} {n : Int} {t : List UInt8} (hT : T.data.toList = nameOf e ++ t) (h : LgP T.data.toList n V) :
    ∃ e' ∈ ENT, n = ((nameOf e').length : Nat) ∧ (nameOf e).length ≤ (nameOf e').length ∧ (nameOf e').length ≤ (nameOf e).length + t.length ∧ (T.extract 0 (nameOf e').length).data.toList = nameOf e' ∧
      V = pk (valL (codesOf e')) ∧ ((nameOf e').length = (nameOf e).length → V = pk (valL (codesOf e))) := by
  have hp : nameOf e <+: T.data.toList := by rw [hT]; exact List.prefix_append _ _
  rcases h with ⟨_, _, h3⟩ | ⟨e', he', h1, h2, h3, h4⟩
  · exact absurd hp (h3 e he)
  · have hl := h4 e he hp
    have hl2 := h1.length_le
    rw [hT, List.length_append] at hl2
    refine ⟨e', he', h2, hl, hl2, ?_, pk_eq _ _ h3, fun heq => ?_⟩
    · have e1 : (T.extract 0 (nameOf e').length).data.toList = T.data.toList.take (nameOf e').length := by rw [Lib.extract_data]; simp
      rw [e1]
      exact (List.prefix_iff_eq_take.1 h1).symm
    · have a1 := List.prefix_iff_eq_take.1 h1
      have a2 := List.prefix_iff_eq_take.1 hp
      rw [heq] at a1
      have := ent_name he' he (a1.trans a2.symm)
      rw [← this]
      exact pk_eq _ _ h3
end Go.Proofs.YtheiehbfbgjgpabDoor

namespace Go.Proofs.YtheiehbfbgjgpabDoor
open Go.RowKit Go.Shelf Go.Lib
attribute [local go_sem] Oper.semAt_some
set_option maxHeartbeats 2000000
set_option maxRecDepth 100000

/-- What holds between the rounds. -/
def BehI (w : World) (n : Int) (s : ByteArray) (pre : List ByteArray) (W : World) : Prop := Boxed W w.heap.size 3 (.int .i64 n) ∧ Boxed W (w.heap.size + 1) 9 (.string s) ∧ Boxed W (w.heap.size + 1 + 1) 4 (.bool false) ∧
  Boxed W (w.heap.size + 1 + 1 + 1) 3 (.int .i64 pre.length) ∧ Below w.heap.size w W
/-- What holds where the loop is left. -/
def BehX (w : World) (c : Code) (_pre : List ByteArray) (W : World) : Prop := c = .ret ∧ Boxed W (w.heap.size + 1 + 1) 4 (.bool true) ∧ Below w.heap.size w W
theorem behI_far (w : World) (n : Int) (s : ByteArray) (B : Nat) (hB : w.heap.size + 4 ≤ B) : Far B (BehI w n s) := by
  rintro s A A' row ⟨b0, b1, b2, b3, hb⟩ hg hr
  exact ⟨b0.kept hg (fun e => by have := hr _ e.symm; omega), b1.kept hg (fun e => by have := hr _ e.symm; omega), b2.kept hg (fun e => by have := hr _ e.symm; omega), b3.kept hg (fun e => by have := hr _ e.symm; omega),
    hb.grown hg hb.size (fun k e => by have := hr _ e; omega)⟩
theorem behX_far (w : World) (c : Code) (B : Nat) (hB : w.heap.size + 4 ≤ B) : Far B (BehX w c) := by
  rintro s A A' row ⟨hc, b2, hb⟩ hg hr
  exact ⟨hc, b2.kept hg (fun e => by have := hr _ e.symm; omega), hb.grown hg hb.size (fun k e => by have := hr _ e; omega)⟩

theorem textBehind_in (m : Int) (k : Nat) (hk : 8 ≤ k) (HSEQ : SeqFar (k - 1) 51 #[] (fun x => #[.string (nmT x), .string (vlT x)]) (Ml m) (partsB 32 NM)) (n : Int) (s : ByteArray) (hs : s.size ≤ 140737488355328) (w : World) (hm : Ml m w) :
    CallsIn Fence.wide k Tryd.prog 6 #[.int .i64 n, .string s] w fun e w' => e = .returned (.bool true) ∧ Below w.heap.size w w' := by
  have h1 : 1 ≤ k := by omega
  have HM := Lib.hid hm
  have HQ := Lib.hid HSEQ
  clear hm HSEQ
  refine callsIn_of_wp_marks Tryd.func6 rfl trivial ?_ rfl
  simp only [Tryd.ntmps6, List.size_toArray, List.length_cons, List.length_nil, Nat.reduceAdd, Nat.reduceSub, Array.replicate_succ, Array.replicate_zero, List.push_toArray, List.append_toArray, List.nil_append, List.cons_append]
  gi_wp2_with fail
  refine ⟨trivial, ?_⟩
  refine (callsIn_wide.2 (namesCall _)).mono ?_
  rintro e W2 ⟨rfl, rfl⟩
  have hnil := names_nil
  gi_wp2_with fail
  clear hnil
  generalize hV0 : (((w.alloc _).alloc _).alloc _).alloc _ = V0
  have z0 : Boxed V0 w.heap.size 3 (.int .i64 n) := by rw [← hV0]; exact (((Boxed.new _ _ _).alloc _).alloc _).alloc _
  have z1 : Boxed V0 (w.heap.size + 1) 9 (.string s) := by rw [← hV0]; exact ((boxed_new _ _ _ _ (by simp)).alloc _).alloc _
  have z2 : Boxed V0 (w.heap.size + 1 + 1) 4 (.bool false) := by rw [← hV0]; exact (boxed_new _ _ _ _ (by simp)).alloc _
  have z3 : Boxed V0 (w.heap.size + 1 + 1 + 1) 3 (.int .i64 0) := by rw [← hV0]; exact boxed_new _ _ _ _ (by simp)
  have zb : Below w.heap.size w V0 := by rw [← hV0]; (repeat' (first | (with_reducible exact Below.refl _ _) | (with_reducible assumption) | (with_reducible refine below_alloc ?_ _) | (with_reducible refine Below.drew ?_) | (with_reducible refine below_drewN ?_ _) | (with_reducible refine Below.setCell ?_ ?_ _) | go_size | (refine below_next ?_ (by assumption))))
  have zs : V0.heap.size = w.heap.size + 4 := by rw [← hV0]; simp
  clear hV0
  refine range_far (n := k) h1 rfl (enters_of Tryd.func51 (by kernel_rfl) rfl) HQ.out (fun _ => rfl)
    (BehI w n s) (fun c => BehX w c) (fun pre W h => carry HM.out h.2.2.2.2) (behI_far w n s _ (by omega)) (fun c => behX_far w c _ (by omega))
    ⟨z0, z1, z2, z3, zb⟩
    (fun x => { tmps := #[.int .i64 n, .string s, .pointer (some ⟨w.heap.size, 0, none⟩), .pointer (some ⟨w.heap.size + 1, 0, none⟩), .pointer (some ⟨w.heap.size + 1 + 1, 0, none⟩), .func (.func 51) #[] #[], .pointer (some ⟨w.heap.size + 1 + 1 + 1, 0, none⟩), .string (nmT x), .string (vlT x), undef, undef, undef, undef, undef, .func (.func 51) #[] #[], .func (.func 51) #[] #[], .bool false, .func (.func 51) #[] #[], .string (nmT x), .string (vlT x), undef, undef, undef, undef, undef, undef, undef, undef, undef, undef, undef, undef, undef, undef, undef, undef, undef, undef, undef, undef, undef, undef, undef, undef, undef, undef, undef, undef, undef, undef, undef, undef, undef, undef, undef, undef, undef, undef, undef, undef, undef, undef, undef, undef, undef, undef, undef, undef, undef, undef, undef, undef, undef, undef, undef, undef, undef, undef, undef, undef, undef, undef, undef, undef, undef], defers := [] }) ?assign ?body ?done ?stop
  case assign =>
    intro l x W K hK
    gi_wp2
    exact hK
  case body =>
    rintro l pre x W ⟨b0, b1, b2, b3, hB⟩ hpx hsz
    obtain ⟨e, r, hd, rfl, he, hr, hlen, hlast⟩ := pre_step hpx
    have k0 := b0.cell
    have k1 := b1.cell
    have k3 := b3.cell
    have f3 := b3.frozen
    have hleni : (pre.length : Int) < 2231 := by omega
    obtain ⟨NX, hnx⟩ : ∃ NX, NX = nmT (pk e) := ⟨_, rfl⟩
    obtain ⟨VX, hvx⟩ : ∃ VX, VX = vlT (pk e) := ⟨_, rfl⟩
    rw [← hnx, ← hvx]
    have HNX := Lib.hid (hnx.trans (nm_pk e))
    have HVX := Lib.hid (hvx.trans (vl_pk e))
    have HEM := Lib.hid he
    have HPL := Lib.hid (show ((pre ++ [pk e]).length : Nat) = pre.length + 1 by simp)
    obtain ⟨q, hq⟩ : ∃ q : Int, q = pre.length := ⟨_, rfl⟩
    rw [← hq] at k3 b3
    have HMV : Hid (∀ W', Below W.heap.size W W' → Boxed W' w.heap.size 3 (.int .i64 n) ∧ Boxed W' (w.heap.size + 1) 9 (.string s) ∧ Boxed W' (w.heap.size + 1 + 1) 4 (.bool false) ∧
        Boxed W' (w.heap.size + 1 + 1 + 1) 3 (.int .i64 q) ∧ Below w.heap.size w W') := Lib.hid (fun W' h =>
      ⟨(h.block _ b0.lt).trans b0, (h.block _ b1.lt).trans b1, (h.block _ b2.lt).trans b2, (h.block _ b3.lt).trans b3, below_next hB h⟩)
    have hw1 : wrap64 (q + 1) = ((pre ++ [pk e]).length : Int) := by
      rw [show wrap64 (q + 1) = q + 1 from IntWalk.wrap64_in _ (by omega), HPL.out, hq]
      rfl
    have HFIN : Hid (BehI w n s (pre ++ [pk e]) ((W.setCell ⟨w.heap.size + 1 + 1 + 1, 0, none⟩ (.int .i64 (wrap64 (q + 1))))) ∧ KeepHi V0.heap.size W ((W.setCell ⟨w.heap.size + 1 + 1 + 1, 0, none⟩ (.int .i64 (wrap64 (q + 1)))))) := Lib.hid (by
      refine ⟨⟨b0.other (by omega) _, b1.other (by omega) _, b2.other (by omega) _, ?_, hB.setCell (p := ⟨w.heap.size + 1 + 1 + 1, 0, none⟩) (by show w.heap.size ≤ w.heap.size + 1 + 1 + 1; omega) _⟩, ?_⟩
      · rw [← hw1]
        exact b3.set _
      · refine ⟨by simp, fun k hk hk2 => ?_⟩
        exact Below.heap_setCell _ _ _ _ (by simp; omega))
    have HZ := Lib.hid zs
    have HS := Lib.hid hs
    clear hw1 hq hnx hvx he hd hr hlen hlast hleni hpx hsz zs b0 b1 b2 b3 hB hk hs
    by_cases hc : q = n
    · have hc1 : (q == n) = true := beq_iff_eq.2 hc
      clear hc
      have hnl : NX.size = (nameOf e).length := by rw [HNX.out]; simp [pk]; rfl
      have hn1 : NX.size ≤ 29726 := by have := nameOf_len e; have := ent_len e HEM.out; omega
      have hs1 := HS.out
      have HNL := Lib.hid hnl
      clear hnl
      gi_wp2_with fail
      refine ⟨trivial, (fun h => by cases h), ?_⟩
      refine (CallsIn.inRound l (callsIn_wide.2 (longest (NX ++ s) m _ (carry HM.out (HMV.out _ (Below.refl _ _)).2.2.2.2)))).mono ?_
      rintro e1 W1 ⟨n1, V1, rfl, hl, hb1⟩
      have hT : (NX ++ s).data.toList = nameOf e ++ s.data.toList := by rw [ByteArray.data_append, Array.toList_append, HNX.out, pk_list]
      obtain ⟨e', he', rfl, q1, q2, q3, q4, q5⟩ := behind HEM.out hT hl
      rw [size_list] at q2
      rw [← HNL.out] at q1 q2 q5
      have hsa : (NX ++ s).size = NX.size + s.size := ByteArray.size_append
      have HNM : Hid (∀ W', Below W.heap.size W W' → Calls Tryd.prog 16 #[.string ((NX ++ s).extract 0 (nameOf e').length)] W' fun x y => x = .returned (.tuple #[.string V1, .int .i64 0]) ∧ Below W'.heap.size W' y) := Lib.hid (by
        intro W' hb
        refine (named ((NX ++ s).extract 0 (nameOf e').length) m W' (carry HM.out (HMV.out _ hb).2.2.2.2)).mono ?_
        rintro x y ⟨V, c, rfl, hp, hb'⟩
        rw [q3] at hp
        obtain ⟨rfl, rfl⟩ := nm_named he' hp
        rw [q4]
        exact ⟨rfl, hb'⟩)
      obtain ⟨K, hK⟩ : ∃ K : Int, K = ((nameOf e').length : Nat) := ⟨_, rfl⟩
      have hKn : (nameOf e').length = K.toNat := by omega
      rw [← hK]
      rw [hKn] at HNM q1 q2 q5
      have hK0 : 0 ≤ K := by omega
      have t1 : decide (K < (NX.size : Int)) = false := decide_eq_false (by omega)
      have t3 : wrap64 ((NX.size : Int) + (s.size : Int)) = (NX.size : Int) + s.size := IntWalk.wrap64_in _ (by omega)
      have t4 : decide ((NX.size : Int) + (s.size : Int) < K) = false := decide_eq_false (by omega)
      have t2 : (K == (NX.size : Int)) = false ∨ ((K == (NX.size : Int)) = true ∧ V1 = VX) := by
        by_cases h : K.toNat = NX.size
        · exact .inr ⟨by rw [beq_iff_eq]; omega, by rw [HVX.out]; exact q5 h⟩
        · exact .inl (by rw [beq_eq_false_iff_ne]; omega)
      have z2 : K ≤ ((NX ++ s).size : Int) := by rw [hsa]; omega
      have hcat : ¬ 9223372036854775807 < NX.size + s.size := by omega
      have HS1 := Lib.hid hn1
      clear hl hT q1 q2 q3 q4 q5 hsa hn1 hs1 hK hKn
      obtain ⟨j0, j1, j2, j3, j5⟩ := HMV.out _ hb1
      have k1' := j1.cell
      have bt := hb1
      clear j0 j1 j2 j3 j5
      rcases t2 with t2 | ⟨t2, rfl⟩
      all_goals
        gi_wp2_with fail
      all_goals
        refine ⟨trivial, (fun h => by cases h), ?_⟩
        refine (CallsIn.inRound l (callsIn_wide.2 (HNM.out _ bt))).mono ?_
        rintro e2 W2 ⟨rfl, hb2⟩
        replace bt := below_next bt hb2
        clear hcat z2 t1 t2 t3 t4 hK0 HNM
        gi_wp2_with fail
        gi_loopw [13] (fun j wr => ∃ I : Int, j = .int .i64 I ∧ 0 ≤ I ∧ I ≤ (NX.size : Int) + 1 ∧ Below W.heap.size W wr) (fun j _ => (NX.size + 1 - (RowKit.intOf j).toNat : Nat))
        case atStart => exact ⟨0, rfl, by omega, by omega, bt⟩
        case round =>
          obtain ⟨I, rfl, i0, i1, hbr⟩ := hrel
          have hsz1 := HS1.out
          by_cases hI : I ≤ (NX.size : Int)
          · have HP := Lib.hid (hasPrefixT (NX.extract 0 I.toNat) (by rw [ByteArray.size_extract]; omega) m wr (carry HM.out (HMV.out _ hbr).2.2.2.2))
            have hpre : hpB (NX.extract 0 I.toNat).data.toList = true := by
              refine nm_pre HEM.out ?_
              have e1 : (NX.extract 0 I.toNat).data.toList = NX.data.toList.take I.toNat := by rw [Lib.extract_data]; simp
              rw [e1, HNX.out, pk_list]
              exact List.take_prefix _ _
            rw [hpre] at HP
            clear hpre
            have hs1 : wrap64 (I + 1) = I + 1 := IntWalk.wrap64_in _ (by omega)
            have hi1 := decide_eq_true hI
            have HI := Lib.hid hI
            have HI0 := Lib.hid i0
            clear i1 hsz1
            gi_wp2_with fail
            refine ⟨trivial, (fun h => by cases h), ?_⟩
            refine (CallsIn.inRound l (callsIn_wide.2 HP.out)).mono ?_
            rintro e3 W3 ⟨rfl, hb3⟩
            replace hbr := below_next hbr hb3
            gi_wp2_with fail
            go_roundw
            case rel =>
              have h2 := HI0.out
              exact ⟨I + 1, by rw [hs1], by omega, by omega, hbr⟩
            case measure =>
              have h2 := HI0.out
              simp only [RowKit.intOf]
              rw [hs1]
              omega
          · have hi1 := decide_eq_false hI
            clear hI i0 i1 hsz1
            have HKN := Lib.hid (known m wr (carry HM.out (HMV.out _ hbr).2.2.2.2))
            gi_wp2_with fail
            refine ⟨trivial, (fun h => by cases h), ?_⟩
            refine (CallsIn.inRound l (callsIn_wide.2 HKN.out)).mono ?_
            rintro e3 W3 ⟨rfl, hb3⟩
            replace hbr := below_next hbr hb3
            obtain ⟨j0, j1, j2, j3, j5⟩ := HMV.out _ hbr
            have c2 := j2.cell
            have f2 := j2.frozen
            have s2 := j2.set (.bool true)
            have hz := HZ.out
            have hk : KeepHi V0.heap.size W (W3.setCell ⟨w.heap.size + 1 + 1, 0, none⟩ (.bool true)) :=
              ⟨by simpa using hbr.size, fun k hk hk2 => (Below.heap_setCell _ _ _ _ (by simp; omega)).trans (hbr.block k hk2)⟩
            have hf := j5.setCell (p := ⟨w.heap.size + 1 + 1, 0, none⟩) (by show w.heap.size ≤ w.heap.size + 1 + 1; omega) (.bool true)
            have HF : Hid (farPost V0.heap.size (BehI w n s) (fun c => BehX w c) (pre ++ [pk e]) W .ret ⟨#[], []⟩ (W3.setCell ⟨w.heap.size + 1 + 1, 0, none⟩ (.bool true))) := Lib.hid ⟨hk, rfl, s2, hf⟩
            clear j0 j1 j2 j3 j5 s2 hz hk hf
            gi_wp2_with fail
            exact HF.out
    · have hc1 : (q == n) = false := by rw [beq_eq_false_iff_ne]; exact hc
      clear hc
      gi_wp2
      exact ⟨HFIN.out.2, HFIN.out.1⟩
  case done =>
    rintro D W hD ⟨b0, b1, b2, b3, hB⟩ hK
    have HKN := Lib.hid (known m W (carry HM.out hB))
    have HD := Lib.hid hD
    have HZ := Lib.hid zs
    clear hk hD zs
    gi_wp2_with fail
    refine ⟨trivial, ?_⟩
    refine (callsIn_wide.2 HKN.out).mono ?_
    rintro e W3 ⟨rfl, hb3⟩
    have c1 : Boxed W3 (w.heap.size + 1 + 1) 4 (.bool false) := (hb3.block _ b2.lt).trans b2
    have kc := c1.cell
    have fc := c1.frozen
    have hs1 := c1.set (.bool true)
    have hB3 := below_next hB hb3
    have hK3 : W3.heap[D]? = some (.deferred (some [])) := (hb3.block _ (Array.getElem?_eq_some_iff.1 hK).1).trans hK
    have hK2 : (W3.setCell ⟨w.heap.size + 1 + 1, 0, none⟩ (.bool true)).heap[D]? = some (.deferred (some [])) := (Below.heap_setCell _ _ _ D (by have := HD.out; have := HZ.out; show D ≠ w.heap.size + 1 + 1; omega)).trans hK3
    clear hK hK3
    gi_wp2_with fail
    refine ⟨by simp, .inl ⟨_, _, rfl, run_takeDeferred hK2, ?_⟩⟩
    have hDn : D ≠ w.heap.size + 1 + 1 := by have := HD.out; have := HZ.out; omega
    have hcz : ∀ o, ((W3.setCell ⟨w.heap.size + 1 + 1, 0, none⟩ (.bool true)).putObj D o).cell? ⟨w.heap.size + 1 + 1, 0, none⟩ = some (.bool true) := fun o => (Boxed.cell (t := 4) (show ((W3.setCell ⟨w.heap.size + 1 + 1, 0, none⟩ (.bool true)).putObj D o).heap[w.heap.size + 1 + 1]? = _ from (World.putObj_heap_other (fun e => hDn e.symm)).trans hs1))
    refine ⟨.bool true, by simp [results, Tryd.results6, go_sem, hcz], rfl, (hB3.setCell (p := ⟨w.heap.size + 1 + 1, 0, none⟩) (by show w.heap.size ≤ w.heap.size + 1 + 1; omega) (.bool true)).trans ?_⟩
    exact belowK_b (w := w) (Nat.le_refl _) (W3.setCell ⟨w.heap.size + 1 + 1, 0, none⟩ (.bool true)) D _ _ (by have := HD.out; have := HZ.out; omega) hK2 rfl rfl

  case stop =>
    rintro D c pre W hD hpre ⟨rfl, b2, hB⟩ hK
    have HD := Lib.hid hD
    have HZ := Lib.hid zs
    have hc := b2.cell
    clear hk hD zs
    gi_wp2_with fail
    refine ⟨by simp, .inl ⟨_, _, rfl, run_takeDeferred hK, ?_⟩⟩
    have hDn : D ≠ w.heap.size + 1 + 1 := by have := HD.out; have := HZ.out; omega
    have hcz : ∀ o, (W.putObj D o).cell? ⟨w.heap.size + 1 + 1, 0, none⟩ = some (.bool true) := fun o => (Boxed.cell (t := 4) (show (W.putObj D o).heap[w.heap.size + 1 + 1]? = _ from (World.putObj_heap_other (fun e => hDn e.symm)).trans b2))
    refine ⟨.bool true, by simp [results, Tryd.results6, go_sem, hcz], rfl, hB.trans ?_⟩
    exact belowK_b (w := w) (Nat.le_refl _) W D _ _ (by have := HD.out; have := HZ.out; omega) hK rfl rfl
end Go.Proofs.YtheiehbfbgjgpabDoor

namespace Go.Proofs.YtheiehbfbgjgpabDoor
open Go.RowKit Go.Shelf
set_option maxHeartbeats 2000000

theorem textBehind (n : Int) (s : ByteArray) (hs : s.size ≤ 140737488355328) (m : Int) (w : World) (hm : Ml m w) :
    Calls Tryd.prog 6 #[.int .i64 n, .string s] w fun e w' => e = .returned (.bool true) ∧ Below w.heap.size w w' :=
  callsIn_wide.1 (textBehind_in m 8 (by omega) (names_seq m) n s hs w hm)
end Go.Proofs.YtheiehbfbgjgpabDoor
