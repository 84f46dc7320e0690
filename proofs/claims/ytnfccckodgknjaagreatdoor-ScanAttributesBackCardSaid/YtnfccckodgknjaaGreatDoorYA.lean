/-
  The frame of a row whose arguments reach cells: nothing that was there has turned.
  A slice of strings among the arguments, read cell by cell.
  Escaping byte by byte, and what brings it back. No program in sight.
  ScanAttributesBack: names, values and what is written, pure.
  A region that draws its order, whose operations only read and whose callees may make memory of their own: one walk in the order of the text serves.
  ScanAttributesBack: the attributes of a tag that is written with quotes are read back.
-/
import Derived.Test.YtnfccckodgknjaaGreatDoorY22
import Derived.SliceStrings
import Derived.Test.YtnfccckodgknjaaGreatDoorY09
import Derived.Test.YtnfccckodgknjaaGreatDoorY35
import Derived.Test.YtnfccckodgknjaaGreatDoorY46
import Derived.Test.YtnfccckodgknjaaGreatDoorY48
import Derived.Test.YtnfccckodgknjaaGreatDoorY01
import Derived.Deep.QuietTactic
import Derived.Test.YtnfccckodgknjaaGreatDoorY47
import Derived.Test.YtnfccckodgknjaaGreatDoorY40
import Derived.Deep.AppendLies
namespace Go.Proofs.YtnfccckodgknjaaGreatDoor
open Go.ChangeShapes Go.WideShapes Go.ChangeAt Go.RowKit Go.WideElems
set_option maxRecDepth 100000

theorem laidOutP : laidOutB Tryz.prog = true := by kernel_rfl

theorem post_cells {H : Type} {enc : TypeId × Value → H} {P : Program} {f : Func} {s : ChangeSpec} {apart fresh handsOn again : Bool} {W W' : World} {args : Array Value} {v : Value} {ds gs : List (DataW H)} {before pa pv : List MemPlace}
    (hW : DataW.Whole enc P f.params.toList s.vars apart W args.toList ds gs before)
    (hres : ∀ (b : Nat) (sp : Nat → Bool) (hd : Bool), DataW.TrodAll enc P W' b sp hd f.resultTypes.toList (v.resultList f.resultTypes.size) (s.fn H (ds ++ gs)).results [])
    (hargs : ∀ sp : Nat → Bool, (∀ p ∈ before, sp p.block = true) → DataW.TrodAll enc P W' 0 sp true f.params.toList args.toList (s.fn H (ds ++ gs)).args pa)
    (hvars : ∀ sp : Nat → Bool, (∀ p ∈ before, sp p.block = true) → DataW.TrodVars enc P W' sp s.vars (s.fn H (ds ++ gs)).vars pv)
    (hps : before = pa ++ pv) (hb : Below W.heap.size W W')
    (hok : ∀ (j : Nat) (t : TypeId) (r : Value), f.resultTypes[j]? = some t → (v.resultList f.resultTypes.size)[j]? = some r → Value.okWide P W' .any 0 t r) :
    s.post enc P f apart fresh handsOn again W args v W' := by
  have hlt : ∀ p ∈ before, p.block < W.heap.size := hW.lt
  have hold : ∀ p ∈ before, (fun b => decide (b < W.heap.size)) p.block = true := fun p hp => by simpa using hlt p hp
  refine ⟨ds, gs, before, [], pa, pv, hW, hres _ _ _, hargs _ hold, hvars _ hold, World.keptBut_mono (fun p hp => by cases hp) (hb.frame (· ∈ ([] : List MemPlace))), fun _ => ?_⟩
  obtain ⟨_, _, _, _, _, hz, hn⟩ := hW
  refine ⟨hok, _, _, ([] ++ pa) ++ pv, ⟨[] ++ pa, pv, trodAll_append (hargs _ (fun _ _ => rfl)) (hres _ _ _), hvars _ (fun _ _ => rfl), rfl, ?_, ?_⟩, ?_⟩
  · intro b off hp
    have hm : MemPlace.cell b off ∈ before := by rw [hps]; simpa using hp
    rw [hb.frozen (p := ⟨b, off, none⟩) (hlt _ hm)]
    exact hz b off hm
  · intro ha
    have := hn ha
    rw [hps] at this
    simpa using this
  · intro p hp _
    rw [hps]
    simpa using hp
end Go.Proofs.YtnfccckodgknjaaGreatDoor

namespace Go.Proofs.YtnfccckodgknjaaGreatDoor
open Go.ChangeShapes Go.WideShapes Go.ChangeAt Go.RowKit Go.WideElems
set_option maxRecDepth 100000

/-- The strings that a slice holds. -/
def StrRow (w : World) (v : Value) (l : List ByteArray) : Prop :=
  ∃ (A : Option Addr) (cap : Nat), v = .slice A l.length cap ∧ ∀ j (h : j < l.length), ∃ g o, A = some ⟨g, o, none⟩ ∧ g < w.heap.size ∧ w.cell? ⟨g, o + j, none⟩ = some (.string (l[j]'h))
theorem StrRow.below {w w' : World} {v : Value} {l : List ByteArray} (h : StrRow w v l) (hb : Below w.heap.size w w') : StrRow w' v l := by
  obtain ⟨A, cap, rfl, hc⟩ := h
  refine ⟨A, cap, rfl, fun j hj => ?_⟩
  obtain ⟨g, o, hA, hg, c⟩ := hc j hj
  exact ⟨g, o, hA, Nat.lt_of_lt_of_le hg hb.size, (hb.cell (p := ⟨g, o + j, none⟩) hg).trans c⟩
theorem cell_lt {w : World} {g o : Nat} {v : Value} (h : w.cell? ⟨g, o, none⟩ = some v) : g < w.heap.size := by
  unfold World.cell? at h
  rcases Nat.lt_or_ge g w.heap.size with h2 | h2
  · exact h2
  · simp [Array.getElem?_eq_none h2] at h
theorem strRow_of {H : Type} {enc : TypeId × Value → H} {w : World} {base fuel : Nat} {v : Value} {x : DataW H × List MemPlace}
    (hok : Value.okWide Tryz.prog w .any base 22 v) (hf : DataW.trod enc Tryz.prog w 0 (fun _ => true) true fuel 22 [v] = some x) : ∃ l, StrRow w v l := by
  obtain ⟨a0, len, cap, rfl⟩ := okWide_slice Tryz.underlying22 hok
  rcases open_strings Tryz.underlying22 Tryz.underlying9 (by kernel_rfl) hf with ⟨hcs, _⟩ | ⟨a, len', cap', zs, hcs, _, hl, hmx, hz, _, hcell, _⟩
  · simp at hcs
    obtain ⟨rfl, rfl, rfl⟩ := hcs
    exact ⟨[], none, 0, rfl, fun j h => absurd h (Nat.not_lt_zero j)⟩
  · simp at hcs
    obtain ⟨rfl, rfl, rfl⟩ := hcs
    simp at hz
    refine ⟨zs.take len, some a, cap, by rw [List.length_take, Nat.min_eq_left (by omega)], ?_⟩
    intro j hj
    rw [List.length_take] at hj
    obtain ⟨b, off, spot⟩ := a
    have h0 := hcell 0 (by omega)
    have hspot : spot = none := by simpa [Addr.add] using World.cell?_spot h0
    subst hspot
    have hj2 := hcell j (by omega)
    rw [Go.WideShapes.add_plain] at hj2
    refine ⟨b, off, rfl, cell_lt hj2, ?_⟩
    rw [hj2, List.getElem_take, List.getD_eq_getElem?_getD, List.getElem?_eq_getElem (by omega)]
    rfl
end Go.Proofs.YtnfccckodgknjaaGreatDoor

namespace Go.Proofs.YtnfccckodgknjaaGreatDoor
open Go.Lib

def sNbsp : List UInt8 := [38, 110, 98, 115, 112, 59]
def escF (f : UInt8 → List UInt8) : List UInt8 → List UInt8
  | [] => []
  | [b] => f b
  | b :: x :: t => if b = 194 ∧ x = 160 then sNbsp ++ escF f t else f b ++ escF f (x :: t)
def fS (b : UInt8) : List UInt8 := if b = 38 then [38, 97, 109, 112, 59] else [b]
def fT (b : UInt8) : List UInt8 := if b = 38 then [38, 97, 109, 112, 59] else if b = 60 then [38, 108, 116, 59] else if b = 62 then [38, 103, 116, 59] else [b]
def fV (b : UInt8) : List UInt8 := if b = 38 then [38, 97, 109, 112, 59] else if b = 34 then [38, 113, 117, 111, 116, 59] else [b]

theorem escF_b (f : UInt8 → List UInt8) (b : UInt8) (t : List UInt8) (h : ¬ (b = 194 ∧ t.head? = some 160)) : escF f (b :: t) = f b ++ escF f t := by
  cases t with
  | nil => simp [escF]
  | cons x t => rw [escF, if_neg (by simpa using h)]
theorem escF_n (f : UInt8 → List UInt8) (t : List UInt8) : escF f (194 :: 160 :: t) = sNbsp ++ escF f t := by rw [escF, if_pos ⟨rfl, rfl⟩]

theorem rep2_b (N : List UInt8) (b : UInt8) (t : List UInt8) (h : ¬ (b = 194 ∧ t.head? = some 160)) : rep2 194 160 N (b :: t) = b :: rep2 194 160 N t := by
  cases t with
  | nil => simp [rep2]
  | cons x t => rw [rep2, if_neg (by simpa using h)]
theorem rep1_consE (c : UInt8) (N : List UInt8) (b : UInt8) (t : List UInt8) : rep1 c N (b :: t) = (if b = c then N else [b]) ++ rep1 c N t := by simp [rep1]
theorem rep1_app (c : UInt8) (N : List UInt8) (a b : List UInt8) : rep1 c N (a ++ b) = rep1 c N a ++ rep1 c N b := by simp [rep1]

theorem shrL_escF : ∀ (n : Nat) (l : List UInt8), l.length ≤ n → shrL l = escF fS l
  | _, [], _ => rfl
  | 0, b :: t, h => by simp at h
  | n + 1, b :: t, h => by
    have ih := shrL_escF n t (by simp at h; omega)
    unfold shrL at ih ⊢
    rw [rep1_consE]
    by_cases hb : b = 38
    · subst hb
      rw [escF_b _ _ _ (by simp), ← ih, if_pos rfl]
      show rep2 194 160 _ (38 :: 97 :: 109 :: 112 :: 59 :: rep1 38 [38, 97, 109, 112, 59] t) = _
      rw [rep2_b _ _ _ (by simp), rep2_b _ _ _ (by simp), rep2_b _ _ _ (by simp), rep2_b _ _ _ (by simp), rep2_b _ _ _ (by simp)]
      rfl
    · rw [if_neg hb]
      have hf : fS b = [b] := by unfold fS; rw [if_neg hb]
      by_cases hn : b = 194 ∧ t.head? = some 160
      · obtain ⟨rfl, ht⟩ := hn
        cases t with
        | nil => simp at ht
        | cons x t =>
          simp at ht
          subst ht
          have ih2 := shrL_escF n t (by simp at h; omega)
          unfold shrL at ih2
          rw [escF_n, ← ih2, rep1_consE, if_neg (by decide)]
          show rep2 194 160 _ (194 :: 160 :: rep1 38 [38, 97, 109, 112, 59] t) = _
          rw [rep2, if_pos ⟨rfl, rfl⟩]
          rfl
      · rw [escF_b _ _ _ hn, ← ih, hf]
        show rep2 194 160 _ (b :: rep1 38 [38, 97, 109, 112, 59] t) = _
        rw [rep2_b _ _ _ ?_]
        · rfl
        · rintro ⟨rfl, h2⟩
          refine hn ⟨rfl, ?_⟩
          cases t with
          | nil => simp [rep1] at h2
          | cons x t =>
            rw [rep1_consE] at h2
            by_cases hx : x = 38
            · rw [if_pos hx] at h2; simp at h2
            · rw [if_neg hx] at h2; simpa using h2

theorem rep1_escF (c : UInt8) (N : List UInt8) (f : UInt8 → List UInt8) (hN : rep1 c N sNbsp = sNbsp) : ∀ (n : Nat) (l : List UInt8), l.length ≤ n → rep1 c N (escF f l) = escF (fun b => rep1 c N (f b)) l
  | _, [], _ => rfl
  | 0, b :: t, h => by simp at h
  | n + 1, b :: t, h => by
    have ih := rep1_escF c N f hN n t (by simp at h; omega)
    by_cases hn : b = 194 ∧ t.head? = some 160
    · obtain ⟨rfl, ht⟩ := hn
      cases t with
      | nil => simp at ht
      | cons x t =>
        simp at ht
        subst ht
        have ih2 := rep1_escF c N f hN n t (by simp at h; omega)
        rw [escF_n, escF_n, rep1_app, hN, ih2]
    · rw [escF_b _ _ _ hn, escF_b _ _ _ hn, rep1_app, ih]

theorem escTL_eq (l : List UInt8) : escTL l = escF fT l := by
  unfold escTL
  rw [shrL_escF _ l (Nat.le_refl _), rep1_escF _ _ _ (by decide) _ l (Nat.le_refl _), rep1_escF _ _ _ (by decide) _ l (Nat.le_refl _)]
  congr 1
  funext b
  unfold fS fT
  by_cases h1 : b = 38
  · subst h1; decide
  · rw [if_neg h1, if_neg h1]
    by_cases h2 : b = 60
    · subst h2; decide
    · rw [if_neg h2]
      by_cases h3 : b = 62
      · subst h3; decide
      · rw [if_neg h3]; simp [rep1, h2, h3]
theorem escVL_eq (l : List UInt8) : escVL l = escF fV l := by
  unfold escVL
  rw [shrL_escF _ l (Nat.le_refl _), rep1_escF _ _ _ (by decide) _ l (Nat.le_refl _)]
  congr 1
  funext b
  unfold fS fV
  by_cases h1 : b = 38
  · subst h1; decide
  · rw [if_neg h1, if_neg h1]
    by_cases h2 : b = 34
    · subst h2; decide
    · rw [if_neg h2]; simp [rep1, h2]

theorem escF_app (f : UInt8 → List UInt8) (r : List UInt8) : ∀ (n : Nat) (l : List UInt8), l.length ≤ n → ¬ l.getLast? = some 194 → escF f (l ++ r) = escF f l ++ escF f r
  | _, [], _, _ => rfl
  | 0, b :: t, h, _ => by simp at h
  | n + 1, b :: t, h, hl => by
    by_cases hn : b = 194 ∧ t.head? = some 160
    · obtain ⟨rfl, ht⟩ := hn
      cases t with
      | nil => simp at ht
      | cons x t =>
        simp at ht
        subst ht
        have hl2 : ¬ t.getLast? = some 194 := by
          intro e
          apply hl
          cases t with
          | nil => simp at e
          | cons y t => simpa using e
        have ih2 := escF_app f r n t (by simp at h; omega) hl2
        rw [List.cons_append, List.cons_append, escF_n, escF_n, ih2, List.append_assoc]
    · have hl2 : ¬ t.getLast? = some 194 := by
        intro e
        apply hl
        cases t with
        | nil => simp at e
        | cons y t => simpa using e
      have ih := escF_app f r n t (by simp at h; omega) hl2
      rw [escF_b _ _ _ hn, List.cons_append, escF_b, ih, List.append_assoc]
      rintro ⟨rfl, h2⟩
      cases t with
      | nil => exact hl (by simp)
      | cons y t => exact hn ⟨rfl, by simpa using h2⟩

theorem escF_mem (f : UInt8 → List UInt8) (P : UInt8 → Prop) (hf : ∀ b, ∀ x ∈ f b, P x) (hs : ∀ x ∈ sNbsp, P x) : ∀ (n : Nat) (l : List UInt8), l.length ≤ n → ∀ x ∈ escF f l, P x
  | _, [], _ => by simp [escF]
  | 0, b :: t, h => by simp at h
  | n + 1, b :: t, h => by
    by_cases hn : b = 194 ∧ t.head? = some 160
    · obtain ⟨rfl, ht⟩ := hn
      cases t with
      | nil => simp at ht
      | cons x t =>
        simp at ht
        subst ht
        have ih2 := escF_mem f P hf hs n t (by simp at h; omega)
        rw [escF_n]
        intro x hx
        rcases List.mem_append.1 hx with hx | hx
        · exact hs x hx
        · exact ih2 x hx
    · have ih := escF_mem f P hf hs n t (by simp at h; omega)
      rw [escF_b _ _ _ hn]
      intro x hx
      rcases List.mem_append.1 hx with hx | hx
      · exact hf b x hx
      · exact ih x hx

theorem fT_no (b : UInt8) : ∀ x ∈ fT b, x ≠ 60 ∧ x ≠ 62 := by
  unfold fT
  intro x hx
  by_cases h1 : b = 38
  · rw [if_pos h1] at hx; revert x; decide
  · rw [if_neg h1] at hx
    by_cases h2 : b = 60
    · rw [if_pos h2] at hx; revert x; decide
    · rw [if_neg h2] at hx
      by_cases h3 : b = 62
      · rw [if_pos h3] at hx; revert x; decide
      · rw [if_neg h3, List.mem_singleton] at hx
        subst hx
        exact ⟨h2, h3⟩
theorem fV_no (b : UInt8) : ∀ x ∈ fV b, x ≠ 34 := by
  unfold fV
  intro x hx
  by_cases h1 : b = 38
  · rw [if_pos h1] at hx; revert x; decide
  · rw [if_neg h1] at hx
    by_cases h2 : b = 34
    · rw [if_pos h2] at hx; revert x; decide
    · rw [if_neg h2, List.mem_singleton] at hx
      subst hx
      exact h2
theorem escTL_no (l : List UInt8) : ∀ x ∈ escTL l, x ≠ 60 ∧ x ≠ 62 := by
  rw [escTL_eq]
  exact escF_mem fT (fun x => x ≠ 60 ∧ x ≠ 62) fT_no (by decide) _ l (Nat.le_refl _)
theorem escVL_no (l : List UInt8) : ∀ x ∈ escVL l, x ≠ 34 := by
  rw [escVL_eq]
  exact escF_mem fV (fun x => x ≠ 34) fV_no (by decide) _ l (Nat.le_refl _)

/-- The references in the order of the law, and what they stand for. -/
def bkT : List (List UInt8 × List UInt8) := [([38, 97, 109, 112, 59], [38]), ([38, 110, 98, 115, 112, 59], [194, 160]), ([38, 108, 116, 59], [60]), ([38, 103, 116, 59], [62]), ([38, 113, 117, 111, 116, 59], [34])]
/-- The last one that stands in front. -/
def bkF (t : List UInt8) : List (List UInt8 × List UInt8) → Nat × List UInt8 → Nat × List UInt8
  | [], a => a
  | (f, x) :: r, a => bkF t r (if f.isPrefixOf t then (f.length, x) else a)
/-- One step: how many bytes are consumed, and what they become. -/
def bk (t : List UInt8) : Nat × List UInt8 := bkF t bkT (1, t.take 1)
def bkN (t : List UInt8) : Nat := (bk t).1
def bkX (t : List UInt8) : List UInt8 := (bk t).2
def backF : Nat → List UInt8 → List UInt8
  | 0, _ => []
  | n + 1, l => if l.isEmpty then [] else bkX l ++ backF n (l.drop (bkN l))
def backL (l : List UInt8) : List UInt8 := backF l.length l
theorem bkF_bd (t : List UInt8) : ∀ (T : List (List UInt8 × List UInt8)) (a : Nat × List UInt8), (∀ p ∈ T, 1 ≤ p.1.length ∧ p.1.length ≤ 6 ∧ p.2.length ≤ 2) → 1 ≤ a.1 → a.1 ≤ 6 → a.2.length ≤ 2 → 1 ≤ (bkF t T a).1 ∧ (bkF t T a).1 ≤ 6 ∧ (bkF t T a).2.length ≤ 2
  | [], a, _, h1, h2, h3 => ⟨h1, h2, h3⟩
  | (f, x) :: r, a, h, h1, h2, h3 => by
    unfold bkF
    obtain ⟨g1, g2, g3⟩ := h (f, x) (by simp)
    refine bkF_bd t r _ (fun p hp => h p (by simp [hp])) ?_ ?_ ?_ <;> split <;> assumption
theorem bk_bd (t : List UInt8) : 1 ≤ (bk t).1 ∧ (bk t).1 ≤ 6 ∧ (bk t).2.length ≤ 2 :=
  bkF_bd t bkT (1, t.take 1) (by decide) (Nat.le_refl _) (by simp) (by simp; omega)
theorem bkF_le (t : List UInt8) : ∀ (T : List (List UInt8 × List UInt8)) (a : Nat × List UInt8), a.1 ≤ t.length → (bkF t T a).1 ≤ t.length
  | [], a, h => h
  | (f, x) :: r, a, h => by
    unfold bkF
    refine bkF_le t r _ ?_
    split
    · rename_i hp
      exact (List.isPrefixOf_iff_prefix.1 hp).length_le
    · exact h
theorem bkN_le (t : List UInt8) (h : t ≠ []) : bkN t ≤ t.length := bkF_le t bkT _ (List.length_pos_iff.2 h)
theorem bkN_pos (l : List UInt8) : 1 ≤ bkN l := (bk_bd l).1
theorem backF_more : ∀ (n m : Nat) (l : List UInt8), l.length ≤ n → l.length ≤ m → backF n l = backF m l
  | 0, m, l, h, _ => by
    have : l = [] := List.length_eq_zero_iff.1 (by omega)
    subst this
    cases m <;> rfl
  | n + 1, 0, l, _, h => by
    have : l = [] := List.length_eq_zero_iff.1 (by omega)
    subst this
    rfl
  | n + 1, m + 1, l, h1, h2 => by
    unfold backF
    have hp := bkN_pos l
    by_cases he : l.isEmpty = true
    · rw [if_pos he, if_pos he]
    · rw [if_neg he, if_neg he, backF_more n m (l.drop (bkN l)) (by simp; omega) (by simp; omega)]
theorem backL_nil : backL [] = [] := rfl
theorem backL_step (l : List UInt8) (h : l ≠ []) : backL l = bkX l ++ backL (l.drop (bkN l)) := by
  have hp := bkN_pos l
  obtain ⟨n, hn⟩ : ∃ n, l.length = n + 1 := ⟨l.length - 1, by have := List.length_pos_iff.2 h; omega⟩
  unfold backL
  rw [hn, backF, if_neg (by simpa using h), backF_more n _ (l.drop (bkN l)) (by simp; omega) (Nat.le_refl _)]
theorem backL_plain (b : UInt8) (r : List UInt8) (h : b ≠ 38) : backL (b :: r) = b :: backL r := by
  have hp : ∀ p : List UInt8, (38 :: p).isPrefixOf (b :: r) = false := by
    intro p
    rw [Bool.eq_false_iff]
    intro e
    simp [List.isPrefixOf] at e
    exact h e.1.symm
  rw [backL_step _ (by simp)]
  have e : bk (b :: r) = (1, [b]) := by simp [bk, bkT, bkF, hp]
  unfold bkN bkX
  rw [e]
  rfl
theorem backL_amp (r : List UInt8) : backL ([38, 97, 109, 112, 59] ++ r) = 38 :: backL r := by rw [backL_step _ (by simp)]; simp [bkN, bkX, bk, bkT, bkF, List.isPrefixOf]
theorem backL_nbsp (r : List UInt8) : backL (sNbsp ++ r) = 194 :: 160 :: backL r := by rw [backL_step _ (by simp [sNbsp])]; simp [sNbsp, bkN, bkX, bk, bkT, bkF, List.isPrefixOf]
theorem backL_lt (r : List UInt8) : backL ([38, 108, 116, 59] ++ r) = 60 :: backL r := by rw [backL_step _ (by simp)]; simp [bkN, bkX, bk, bkT, bkF, List.isPrefixOf]
theorem backL_gt (r : List UInt8) : backL ([38, 103, 116, 59] ++ r) = 62 :: backL r := by rw [backL_step _ (by simp)]; simp [bkN, bkX, bk, bkT, bkF, List.isPrefixOf]
theorem backL_quot (r : List UInt8) : backL ([38, 113, 117, 111, 116, 59] ++ r) = 34 :: backL r := by rw [backL_step _ (by simp)]; simp [bkN, bkX, bk, bkT, bkF, List.isPrefixOf]
theorem back_fT (b : UInt8) (r : List UInt8) : backL (fT b ++ r) = b :: backL r := by
  unfold fT
  by_cases h1 : b = 38
  · subst h1; rw [if_pos rfl]; exact backL_amp r
  · rw [if_neg h1]
    by_cases h2 : b = 60
    · subst h2; rw [if_pos rfl]; exact backL_lt r
    · rw [if_neg h2]
      by_cases h3 : b = 62
      · subst h3; rw [if_pos rfl]; exact backL_gt r
      · rw [if_neg h3]; exact backL_plain b r h1
theorem back_fV (b : UInt8) (r : List UInt8) : backL (fV b ++ r) = b :: backL r := by
  unfold fV
  by_cases h1 : b = 38
  · subst h1; rw [if_pos rfl]; exact backL_amp r
  · rw [if_neg h1]
    by_cases h2 : b = 34
    · subst h2; rw [if_pos rfl]; exact backL_quot r
    · rw [if_neg h2]; exact backL_plain b r h1
theorem back_escF (f : UInt8 → List UInt8) (hf : ∀ b r, backL (f b ++ r) = b :: backL r) : ∀ (n : Nat) (l : List UInt8), l.length ≤ n → backL (escF f l) = l
  | _, [], _ => rfl
  | 0, b :: t, h => by simp at h
  | n + 1, b :: t, h => by
    by_cases hn : b = 194 ∧ t.head? = some 160
    · obtain ⟨rfl, ht⟩ := hn
      cases t with
      | nil => simp at ht
      | cons x t =>
        simp at ht
        subst ht
        rw [escF_n, backL_nbsp, back_escF f hf n t (by simp at h; omega)]
    · rw [escF_b _ _ _ hn, hf, back_escF f hf n t (by simp at h; omega)]
theorem back_escT (l : List UInt8) : backL (escTL l) = l := by rw [escTL_eq]; exact back_escF fT back_fT _ l (Nat.le_refl _)
theorem back_escV (l : List UInt8) : backL (escVL l) = l := by rw [escVL_eq]; exact back_escF fV back_fV _ l (Nat.le_refl _)
end Go.Proofs.YtnfccckodgknjaaGreatDoor

namespace Go.Proofs.YtnfccckodgknjaaGreatDoor
open Go.Lib
set_option maxRecDepth 100000

/-- Names and values, pair by pair. -/
def pairL (ns vs : List ByteArray) : AttL := (ns.zip vs).map fun p => (p.1.data.toList, p.2.data.toList)
theorem pairL_snoc (ns vs : List ByteArray) (k : Nat) (h : k < ns.length) (h2 : k < vs.length) : (pairL ns vs).take (k + 1) = (pairL ns vs).take k ++ [((ns[k]'h).data.toList, (vs[k]'h2).data.toList)] := by
  have e : (pairL ns vs)[k]? = some ((ns[k]'h).data.toList, (vs[k]'h2).data.toList) := by
    unfold pairL
    rw [List.getElem?_map, List.getElem?_eq_getElem (by rw [List.length_zip]; omega), List.getElem_zip]
    rfl
  rw [List.take_add_one, e]
  rfl
theorem pairL_all (ns vs : List ByteArray) (h : ns.length = vs.length) : (pairL ns vs).take ns.length = pairL ns vs :=
  List.take_of_length_le (by unfold pairL; rw [List.length_map, List.length_zip]; omega)
theorem map_self {f : UInt8 → UInt8} : ∀ {l : List UInt8}, l.map f = l → ∀ x ∈ l, f x = x
  | [], _, x, h => by cases h
  | a :: l, e, x, h => by
    rw [List.map_cons] at e
    injection e with e1 e2
    rcases List.mem_cons.1 h with rfl | h
    · exact e1
    · exact map_self e2 x h
theorem bare_parts {b : UInt8} (h : bareP (b.toNat : Int) = true) (h2 : (!((b.toNat : Int) == 61)) = true) : eqU b = false ∧ b ≠ 0 := by
  have key : ∀ k : Fin 256, bareP ((UInt8.ofNat k.val).toNat : Int) = true → (!(((UInt8.ofNat k.val).toNat : Int) == 61)) = true → eqU (UInt8.ofNat k.val) = false ∧ UInt8.ofNat k.val ≠ 0 := by decide +kernel
  have e : UInt8.ofNat b.toNat = b := UInt8.ofNat_toNat
  have h3 := key ⟨b.toNat, b.toNat_lt⟩
  simp only [e] at h3
  exact h3 h h2
theorem vAttr_parts {X : ByteArray} (h : vAttr X = true) : X.data.toList ≠ [] ∧ (∀ b ∈ X.data.toList, bareP (b.toNat : Int) = true) ∧ ∀ b ∈ X.data.toList, (!((b.toNat : Int) == 61)) = true := by
  have hv : vAttr X = (!X.toList.isEmpty && (allB bareP X && allB (fun b => !(b == 61)) X)) := by unfold vAttr; rw [all_attr]
  rw [hv, Bool.and_eq_true, Bool.and_eq_true] at h
  refine ⟨?_, fun b hb => List.all_eq_true.1 h.2.1 b hb, fun b hb => List.all_eq_true.1 h.2.2 b hb⟩
  intro e
  have h1 := h.1
  rw [ByteArray.toList_eq, e] at h1
  cases h1
theorem nameOk_of {X XL : ByteArray} (h : vAttr X = true) (hl : XL = lowS X) (he : (XL.toList == X.toList) = true) : NameOk X.data.toList := by
  obtain ⟨h1, h2, h3⟩ := vAttr_parts h
  have hm : lowL X.data.toList = X.data.toList := by
    have e := eq_of_beq he
    rw [hl, lowS_eq, ByteArray.toList_eq, ByteArray.toList_eq] at e
    exact e
  refine ⟨h1, fun b hb => ⟨(bare_parts (h2 b hb) (h3 b hb)).1, (bare_parts (h2 b hb) (h3 b hb)).2, map_self hm b hb⟩⟩
theorem noz_of {Y : ByteArray} (h : (!(allB (fun b => !(b == (0 : Int))) Y)) = false) : ∀ x ∈ Y.data.toList, x ≠ 0 := by
  intro x hx e
  have h2 : allB (fun b => !(b == (0 : Int))) Y = true := by simpa using h
  have h3 := List.all_eq_true.1 h2 x hx
  rw [e] at h3
  exact absurd h3 (by decide)
theorem str_snoc {ns vs : List ByteArray} {k : Nat} (h : k < ns.length) (h2 : k < vs.length) {V X Y E : ByteArray} (hX : X = ns[k]'h) (hY : Y = vs[k]'h2)
    (hV : V.data.toList = ((pairL ns vs).take k).flatMap (fun p => attrS p.1 p.2)) (hE : E.data.toList = escVL Y.data.toList) :
    (V ++ ⟨#[32]⟩ ++ X ++ ⟨#[61, 34]⟩ ++ E ++ ⟨#[34]⟩).data.toList = ((pairL ns vs).take (k + 1)).flatMap (fun p => attrS p.1 p.2) := by
  rw [pairL_snoc ns vs k h h2, List.flatMap_append, ← hV, ← hX, ← hY]
  simp [ByteArray.data_append, attrS, hE]
theorem all_snoc {ns vs : List ByteArray} {k : Nat} (h : k < ns.length) (h2 : k < vs.length) {X Y : ByteArray} (hX : X = ns[k]'h) (hY : Y = vs[k]'h2)
    (ha : ∀ p ∈ (pairL ns vs).take k, NameOk p.1 ∧ ∀ x ∈ p.2, x ≠ 0) (h3 : NameOk X.data.toList) (h4 : ∀ x ∈ Y.data.toList, x ≠ 0) : ∀ p ∈ (pairL ns vs).take (k + 1), NameOk p.1 ∧ ∀ x ∈ p.2, x ≠ 0 := by
  rw [pairL_snoc ns vs k h h2, ← hX, ← hY]
  intro p hp
  rcases List.mem_append.1 hp with hp | hp
  · exact ha p hp
  · obtain rfl : p = (X.data.toList, Y.data.toList) := by simpa using hp
    exact ⟨h3, h4⟩
theorem fold_snoc {ns vs : List ByteArray} {k : Nat} (h : k < ns.length) (h2 : k < vs.length) {X Y : ByteArray} (hX : X = ns[k]'h) (hY : Y = vs[k]'h2) {acc : AttL} (ha : ((pairL ns vs).take k).foldl (fun a p => addL a p.1 p.2) [] = acc) :
    ((pairL ns vs).take (k + 1)).foldl (fun a p => addL a p.1 p.2) [] = addL acc X.data.toList Y.data.toList := by
  rw [pairL_snoc ns vs k h h2, List.foldl_append, ha, ← hX, ← hY]
  rfl
theorem escF_le6 (f : UInt8 → List UInt8) (hf : ∀ b, (f b).length ≤ 6) : ∀ (n : Nat) (l : List UInt8), l.length ≤ n → (escF f l).length ≤ 6 * l.length
  | _, [], _ => by simp [escF]
  | 0, b :: t, h => by simp at h
  | n + 1, b :: t, h => by
    by_cases hn : b = 194 ∧ t.head? = some 160
    · obtain ⟨rfl, ht⟩ := hn
      cases t with
      | nil => simp at ht
      | cons x t =>
        simp at ht
        subst ht
        have ih2 := escF_le6 f hf n t (by simp at h; omega)
        rw [escF_n, List.length_append, show sNbsp.length = 6 from rfl, List.length_cons, List.length_cons]
        omega
    · have ih := escF_le6 f hf n t (by simp at h; omega)
      have := hf b
      rw [escF_b _ _ _ hn, List.length_append, List.length_cons]
      omega
theorem escV_len (l : List UInt8) : (escVL l).length ≤ 6 * l.length := by rw [escVL_eq]; exact escF_le6 fV (by intro b; unfold fV; (repeat' split) <;> simp) _ l (Nat.le_refl _)
end Go.Proofs.YtnfccckodgknjaaGreatDoor

namespace Go.Proofs.YtnfccckodgknjaaGreatDoor
open Go.RowKit

/-- A world behind w: what stood in w stands. -/
structure Lat (w : World) where
  W : World
  below : Below w.heap.size w W
instance (w : World) : Inhabited (Lat w) := ⟨⟨w, Below.refl _ _⟩⟩
theorem wp_region_lat {P : Program} {id : Nat} {Q : Exit → Act → World → Prop} {a : Act} {w : World} {l : List Oper} (hm : P.follows .mixedOrders = true) (hB : Region.lexB .any l.toArray = true)
    (h : wpQuiet P l.toArray (fun w' => ∃ p : Lat w, w' = p.W) (fun a' => ∀ w', (∃ p : Lat w, w' = p.W) → Q .normal a' w') l a) : (Code.region id l.toArray true).wp P Q a w :=
  wp_region_quiet (C := fun w' => ∃ p : Lat w, w' = p.W) hm hB ⟨⟨w.drew, Below.drew (Below.refl _ _)⟩, rfl⟩ (by simpa using h)
theorem lat_of {P : Program} {f : FuncId} {args : Array Value} {w : World} {p : Lat w} {v : Value} (h : Calls P f args p.W fun e w' => e = .returned v ∧ Below p.W.heap.size p.W w') :
    Calls P f args p.W fun e w'' => e = .returned v ∧ ∃ q : Lat w, w'' = q.W :=
  h.mono fun _ w' ⟨he, hb⟩ => ⟨he, ⟨w', below_next p.below hb⟩, rfl⟩
theorem lat_same {P : Program} {f : FuncId} {args : Array Value} {w : World} {p : Lat w} {v : Value} (h : Calls P f args p.W fun e w' => e = .returned v ∧ w' = p.W) :
    Calls P f args p.W fun e w'' => e = .returned v ∧ ∃ q : Lat w, w'' = q.W :=
  h.mono fun _ _ ⟨he, hm⟩ => ⟨he, p, hm⟩
theorem Lat.cell {w : World} (p : Lat w) {a : Addr} {v : Value} (ha : a.block < w.heap.size) (h : w.cell? a = some v) : p.W.cell? a = some v := (p.below.cell ha).trans h
theorem Lat.lt {w : World} (p : Lat w) {g : Nat} (h : g < w.heap.size) : g < p.W.heap.size := Nat.lt_of_lt_of_le h p.below.size
theorem keep3 {B W : World} {a b : Addr} {u v : Value} (xa : a.block < B.heap.size) (xb : b.block < B.heap.size) (z0 : B.cell? a = some u) (z1 : B.cell? b = some v) (hb : Below B.heap.size B W) :
    W.cell? a = some u ∧ W.cell? b = some v ∧ Below B.heap.size B W := ⟨(hb.cell xa).trans z0, (hb.cell xb).trans z1, hb⟩
end Go.Proofs.YtnfccckodgknjaaGreatDoor

namespace Go.Proofs.YtnfccckodgknjaaGreatDoor
open Go.RowKit Go.Shelf Go.Lib
set_option maxHeartbeats 4000000
set_option maxRecDepth 100000

theorem escVal (Y : ByteArray) (m : Int) (hs : Y.size ≤ 70000) (w : World) (hm : w.cell? ⟨1, 0, none⟩ = some (.int .i64 m)) :
    Calls Tryz.prog 16 #[.string Y] w fun e w' => e = .returned (.string (bl (escVL Y.data.toList))) ∧ Below w.heap.size w w' := by
  refine (escapeValue Y m hs w hm).mono ?_
  rintro e w' ⟨S, h, rfl, hb⟩
  exact ⟨by rw [← h]; rfl, hb⟩
theorem lawAttributesBack (names values : Value) (ns vs : List ByteArray) (self : Bool) (more : ByteArray) (m : Int) (w : World) (hnm : StrRow w names ns) (hvl : StrRow w values vs) (hm : w.cell? ⟨1, 0, none⟩ = some (.int .i64 m)) (hc : CtlW w) :
    Calls Tryz.prog 3 #[names, values, .bool self, .string more] w fun e w' => e = .returned (.bool true) ∧ Below w.heap.size w w' := by
  obtain ⟨A, cA, rfl, hA⟩ := hnm
  obtain ⟨B, cB, rfl, hB⟩ := hvl
  have HM := Lib.hid hm
  have HC := Lib.hid hc
  have HA := Lib.hid hA
  have HB := Lib.hid hB
  have HS1 := Lib.hid (small02 more)
  have HK := Lib.hid (known02 m w hc hm)
  obtain ⟨n, hn⟩ : ∃ n, n = ns.length := ⟨_, rfl⟩
  obtain ⟨nv, hnv⟩ : ∃ n, n = vs.length := ⟨_, rfl⟩
  rw [← hn, ← hnv]
  have HN := Lib.hid hn
  have HV := Lib.hid hnv
  clear hm hc hA hB hn hnv
  by_cases h12 : n ≤ 12
  · have hI : ¬ (n : Int) > 12 := by omega
    by_cases hnn : n = nv
    · subst hnn
      have hz : (n : Int) ≤ 12 := by omega
      by_cases h1 : more.size ≤ 4096
      · rw [decide_eq_true h1] at HS1
        have H1 := Lib.hid h1
        clear h1
        have t12 : decide ((12 : Int) < (n : Int)) = false := decide_eq_false (by omega)
        have tnn : ((n : Int) != (n : Int)) = false := by simp
        go_enter Tryz.func3, Tryz.ntmps3
        go_wp2_with fail
        refine (HS1.out w).mono ?_
        rintro e w1 ⟨rfl, rfl⟩
        go_wp2_with fail
        go_loopw [9, 10, 11] (fun v sv i wr => ∃ (k : Nat) (V : ByteArray), k ≤ n ∧ i = .int .i64 k ∧ sv = .string V ∧ V.data.toList = ((pairL ns vs).take k).flatMap (fun p => attrS p.1 p.2) ∧ V.size ≤ k * 30000 ∧
            (∀ p ∈ (pairL ns vs).take k, NameOk p.1 ∧ ∀ x ∈ p.2, x ≠ 0) ∧ (((pairL ns vs).take k).foldl (fun a p => addL a p.1 p.2) []).length ≤ k ∧
            wr.ownsRow w1.heap.size 31 3 v (((pairL ns vs).take k).foldl (fun a p => addL a p.1 p.2) []).length (attrCells (((pairL ns vs).take k).foldl (fun a p => addL a p.1 p.2) [])) ∧ Below w1.heap.size w1 wr)
          (fun _ _ i _ => n - (intOf i).toNat)
        case atStart => exact ⟨0, ⟨#[]⟩, Nat.zero_le _, rfl, rfl, rfl, Nat.zero_le _, (by intro p hp; cases hp), Nat.le_refl _, World.ownsRow_nil _ _ _ _, Below.refl _ _⟩
        case round =>
          obtain ⟨k, V, hk, rfl, rfl, hV, hVs, hall, hal, hrow, hBB⟩ := hrel
          have HVV := Lib.hid hV
          have HVS := Lib.hid hVs
          have HALL := Lib.hid hall
          have HAL := Lib.hid hal
          have HROW := Lib.hid hrow
          have HBB := Lib.hid hBB
          generalize hacc : ((pairL ns vs).take k).foldl (fun a p => addL a p.1 p.2) [] = acc at HAL HROW
          have HACC := Lib.hid hacc
          clear hV hVs hall hal hrow hacc
          by_cases hlt : k < n
          · have hkI : (k : Int) < (n : Int) := by omega
            have hla : k < ns.length := by rw [← HN.out]; exact hlt
            have hlb : k < vs.length := by rw [← HV.out]; exact hlt
            obtain ⟨ga, oa, rfl, xa0, x0⟩ := HA.out k hla
            obtain ⟨gb, ob, rfl, xb0, x1⟩ := HB.out k hlb
            have xa := Nat.lt_of_lt_of_le xa0 hBB.size
            have xb := Nat.lt_of_lt_of_le xb0 hBB.size
            have hz0b := x0
            have hz1b := x1
            replace x0 := (hBB.cell (p := ⟨ga, oa + k, none⟩) xa0).trans x0
            replace x1 := (hBB.cell (p := ⟨gb, ob + k, none⟩) xb0).trans x1
            obtain ⟨X, hX⟩ : ∃ X, X = ns[k]'hla := ⟨_, rfl⟩
            obtain ⟨Y, hY⟩ : ∃ Y, Y = vs[k]'hlb := ⟨_, rfl⟩
            rw [← hX] at x0 hz0b
            rw [← hY] at x1 hz1b
            have HX := Lib.hid (And.intro hX hY)
            have HXA := Lib.hid xa0
            have HXB := Lib.hid xb0
            have HZ0 := Lib.hid hz0b
            have HZ1 := Lib.hid hz1b
            clear hX hY xa0 xb0 hz0b hz1b
            have lx0 : ∀ p : Lat wr, p.W.cell? ⟨ga, oa + k, none⟩ = some (.string X) := fun p => p.cell xa x0
            have lx1 : ∀ p : Lat wr, p.W.cell? ⟨gb, ob + k, none⟩ = some (.string Y) := fun p => p.cell xb x1
            go_wp2_with fail
            by_cases hb1 : X.size ≤ 4096
            · by_cases hb2 : Y.size ≤ 4096
              · cases hb3 : vAttr X with
                | false =>
                  have C1 : Hid (∀ p : Lat wr, Calls Tryz.prog 11 #[.string X] p.W fun e w2 => e = .returned (.bool true) ∧ ∃ q : Lat wr, w2 = q.W) := Lib.hid (by
                    intro p
                    have h := small02 X p.W
                    rw [decide_eq_true hb1] at h
                    exact lat_same h)
                  have C2 : Hid (∀ p : Lat wr, Calls Tryz.prog 11 #[.string Y] p.W fun e w2 => e = .returned (.bool true) ∧ ∃ q : Lat wr, w2 = q.W) := Lib.hid (by
                    intro p
                    have h := small02 Y p.W
                    rw [decide_eq_true hb2] at h
                    exact lat_same h)
                  have C3 : Hid (∀ p : Lat wr, Calls Tryz.prog 13 #[.string X] p.W fun e w2 => e = .returned (.bool false) ∧ ∃ q : Lat wr, w2 = q.W) := Lib.hid (by
                    intro p
                    have h := rValidAttribute X (by unfold maxLen; omega) p.W
                    rw [hb3] at h
                    exact lat_same h)
                  clear hb1 hb2 hb3 HX
                  refine wp_region_lat (by kernel_rfl) (by kernel_rfl) ?_
                  repeat (go_big_quiet_step ((first | (go_at_call 11; exact C1.out _) | (go_at_call 11; exact C2.out _) | (go_at_call 13; exact C3.out _))))
                  refine wpQuiet_nil ?_
                  rintro _ ⟨p, rfl⟩
                  have hbz := below_next hBB p.below
                  have HBZ := Lib.hid hbz
                  have HKn := Lib.hid (known02 m _ (HC.out.below hbz) (carry HM.out hbz))
                  clear hbz hBB
                  go_wp2_with fail
                  refine HKn.out.mono ?_
                  rintro e w5 ⟨rfl, hs⟩
                  go_wp2_with fail
                  go_ret
                  exact ⟨rfl, below_next HBZ.out hs⟩
                | true =>
                  obtain ⟨XL, hXL⟩ : ∃ XL, XL = lowS X := ⟨_, rfl⟩
                  cases hb4 : (XL.toList == X.toList) with
                  | false =>
                    have t4 : (XL.toList != X.toList) = true := by rw [bne, hb4]; rfl
                    have C1 : Hid (∀ p : Lat wr, Calls Tryz.prog 11 #[.string X] p.W fun e w2 => e = .returned (.bool true) ∧ ∃ q : Lat wr, w2 = q.W) := Lib.hid (by
                      intro p
                      have h := small02 X p.W
                      rw [decide_eq_true hb1] at h
                      exact lat_same h)
                    have C2 : Hid (∀ p : Lat wr, Calls Tryz.prog 11 #[.string Y] p.W fun e w2 => e = .returned (.bool true) ∧ ∃ q : Lat wr, w2 = q.W) := Lib.hid (by
                      intro p
                      have h := small02 Y p.W
                      rw [decide_eq_true hb2] at h
                      exact lat_same h)
                    have C3 : Hid (∀ p : Lat wr, Calls Tryz.prog 13 #[.string X] p.W fun e w2 => e = .returned (.bool true) ∧ ∃ q : Lat wr, w2 = q.W) := Lib.hid (by
                      intro p
                      have h := rValidAttribute X (by unfold maxLen; omega) p.W
                      rw [hb3] at h
                      exact lat_same h)
                    have C4 : Hid (∀ p : Lat wr, Calls Tryz.prog 14 #[.string X] p.W fun e w2 => e = .returned (.string XL) ∧ ∃ q : Lat wr, w2 = q.W) := Lib.hid (by
                      intro p
                      have h := rLower X (by omega) p.W
                      rw [← hXL] at h
                      exact lat_of h)
                    clear hb1 hb2 hb3 hXL HX
                    refine wp_region_lat (by kernel_rfl) (by kernel_rfl) ?_
                    repeat (go_big_quiet_step ((first | (go_at_call 11; exact C1.out _) | (go_at_call 11; exact C2.out _) | (go_at_call 13; exact C3.out _) | (go_at_call 14; exact C4.out _))))
                    refine wpQuiet_nil ?_
                    rintro _ ⟨p, rfl⟩
                    have hbz := below_next hBB p.below
                    have HBZ := Lib.hid hbz
                    have HKn := Lib.hid (known02 m _ (HC.out.below hbz) (carry HM.out hbz))
                    clear hbz hBB
                    go_wp2_with fail
                    refine HKn.out.mono ?_
                    rintro e w5 ⟨rfl, hs⟩
                    go_wp2_with fail
                    go_ret
                    exact ⟨rfl, below_next HBZ.out hs⟩
                  | true =>
                    have t4 : (XL.toList != X.toList) = false := by rw [bne, hb4]; rfl
                    cases hb5 : (!(allB (fun b => !(b == (0 : Int))) Y)) with
                    | true =>
                      have C1 : Hid (∀ p : Lat wr, Calls Tryz.prog 11 #[.string X] p.W fun e w2 => e = .returned (.bool true) ∧ ∃ q : Lat wr, w2 = q.W) := Lib.hid (by
                        intro p
                        have h := small02 X p.W
                        rw [decide_eq_true hb1] at h
                        exact lat_same h)
                      have C2 : Hid (∀ p : Lat wr, Calls Tryz.prog 11 #[.string Y] p.W fun e w2 => e = .returned (.bool true) ∧ ∃ q : Lat wr, w2 = q.W) := Lib.hid (by
                        intro p
                        have h := small02 Y p.W
                        rw [decide_eq_true hb2] at h
                        exact lat_same h)
                      have C3 : Hid (∀ p : Lat wr, Calls Tryz.prog 13 #[.string X] p.W fun e w2 => e = .returned (.bool true) ∧ ∃ q : Lat wr, w2 = q.W) := Lib.hid (by
                        intro p
                        have h := rValidAttribute X (by unfold maxLen; omega) p.W
                        rw [hb3] at h
                        exact lat_same h)
                      have C4 : Hid (∀ p : Lat wr, Calls Tryz.prog 14 #[.string X] p.W fun e w2 => e = .returned (.string XL) ∧ ∃ q : Lat wr, w2 = q.W) := Lib.hid (by
                        intro p
                        have h := rLower X (by omega) p.W
                        rw [← hXL] at h
                        exact lat_of h)
                      have C5 : Hid (∀ p : Lat wr, Calls Tryz.prog 15 #[.string Y, .int .u8 0] p.W fun e w2 => e = .returned (.bool true) ∧ ∃ q : Lat wr, w2 = q.W) := Lib.hid (by
                        intro p
                        have h := rHas Y 0 (by unfold maxLen; omega) p.W
                        rw [hb5] at h
                        exact lat_same h)
                      clear hb1 hb2 hb3 hXL hb5 HX
                      refine wp_region_lat (by kernel_rfl) (by kernel_rfl) ?_
                      repeat (go_big_quiet_step ((first | (go_at_call 11; exact C1.out _) | (go_at_call 11; exact C2.out _) | (go_at_call 13; exact C3.out _) | (go_at_call 14; exact C4.out _) | (go_at_call 15; exact C5.out _))))
                      refine wpQuiet_nil ?_
                      rintro _ ⟨p, rfl⟩
                      have hbz := below_next hBB p.below
                      have HBZ := Lib.hid hbz
                      have HKn := Lib.hid (known02 m _ (HC.out.below hbz) (carry HM.out hbz))
                      clear hbz hBB
                      go_wp2_with fail
                      refine HKn.out.mono ?_
                      rintro e w5 ⟨rfl, hs⟩
                      go_wp2_with fail
                      go_ret
                      exact ⟨rfl, below_next HBZ.out hs⟩
                    | false =>
                      have C1 : Hid (∀ p : Lat wr, Calls Tryz.prog 11 #[.string X] p.W fun e w2 => e = .returned (.bool true) ∧ ∃ q : Lat wr, w2 = q.W) := Lib.hid (by
                        intro p
                        have h := small02 X p.W
                        rw [decide_eq_true hb1] at h
                        exact lat_same h)
                      have C2 : Hid (∀ p : Lat wr, Calls Tryz.prog 11 #[.string Y] p.W fun e w2 => e = .returned (.bool true) ∧ ∃ q : Lat wr, w2 = q.W) := Lib.hid (by
                        intro p
                        have h := small02 Y p.W
                        rw [decide_eq_true hb2] at h
                        exact lat_same h)
                      have C3 : Hid (∀ p : Lat wr, Calls Tryz.prog 13 #[.string X] p.W fun e w2 => e = .returned (.bool true) ∧ ∃ q : Lat wr, w2 = q.W) := Lib.hid (by
                        intro p
                        have h := rValidAttribute X (by unfold maxLen; omega) p.W
                        rw [hb3] at h
                        exact lat_same h)
                      have C4 : Hid (∀ p : Lat wr, Calls Tryz.prog 14 #[.string X] p.W fun e w2 => e = .returned (.string XL) ∧ ∃ q : Lat wr, w2 = q.W) := Lib.hid (by
                        intro p
                        have h := rLower X (by omega) p.W
                        rw [← hXL] at h
                        exact lat_of h)
                      have C5 : Hid (∀ p : Lat wr, Calls Tryz.prog 15 #[.string Y, .int .u8 0] p.W fun e w2 => e = .returned (.bool false) ∧ ∃ q : Lat wr, w2 = q.W) := Lib.hid (by
                        intro p
                        have h := rHas Y 0 (by unfold maxLen; omega) p.W
                        rw [hb5] at h
                        exact lat_same h)
                      have HOK := Lib.hid (And.intro hb1 (And.intro hb2 (And.intro hb3 (And.intro hXL (And.intro hb4 hb5)))))
                      clear hb1 hb2 hb3 hXL hb5
                      refine wp_region_lat (by kernel_rfl) (by kernel_rfl) ?_
                      repeat (go_big_quiet_step ((first | (go_at_call 11; exact C1.out _) | (go_at_call 11; exact C2.out _) | (go_at_call 13; exact C3.out _) | (go_at_call 14; exact C4.out _) | (go_at_call 15; exact C5.out _))))
                      refine wpQuiet_nil ?_
                      rintro _ ⟨p, rfl⟩
                      obtain ⟨w7, hw7⟩ : ∃ W, W = p.W := ⟨_, rfl⟩
                      have y0 : w7.cell? ⟨ga, oa + k, none⟩ = some (.string X) := by rw [hw7]; exact lx0 p
                      have y1 : w7.cell? ⟨gb, ob + k, none⟩ = some (.string Y) := by rw [hw7]; exact lx1 p
                      have ya : ga < w7.heap.size := by rw [hw7]; exact p.lt xa
                      have yb : gb < w7.heap.size := by rw [hw7]; exact p.lt xb
                      have hb7 : Below wr.heap.size wr w7 := by rw [hw7]; exact p.below
                      rw [← hw7]
                      clear hw7 p lx0 lx1 x0 x1 xa xb
                      all_goals
                        have HBZ := Lib.hid (below_next HBB.out hb7)
                        have HROWZ := Lib.hid (ownA_below HROW.out hb7)
                        obtain ⟨E, hE⟩ : ∃ E, E = bl (escVL Y.data.toList) := ⟨_, rfl⟩
                        have HEE := Lib.hid hE
                        have sV : V.size ≤ 400000 := by have := HVS.out; have := hlt; have := hz; omega
                        have sX : X.size ≤ 4096 := by have := HOK.out.1; omega
                        have sE : E.size ≤ 24576 := by
                          have h := escV_len Y.data.toList
                          have h1 := HOK.out.2.1
                          have h2 : E.size = (escVL Y.data.toList).length := by rw [hE, bl_size]
                          rw [size_list] at h
                          omega
                        have CE : Hid (∀ p : Lat w7, Calls Tryz.prog 16 #[.string Y] p.W fun e w2 => e = .returned (.string E) ∧ ∃ q : Lat w7, w2 = q.W) := Lib.hid (by
                          intro p
                          have h := escVal Y m (by have := HOK.out.2.1; omega) p.W (carry HM.out (below_next HBZ.out p.below))
                          rw [← hE] at h
                          exact lat_of h)
                        have ly0 : ∀ p : Lat w7, p.W.cell? ⟨ga, oa + k, none⟩ = some (.string X) := fun p => p.cell ya y0
                        have ly1 : ∀ p : Lat w7, p.W.cell? ⟨gb, ob + k, none⟩ = some (.string Y) := fun p => p.cell yb y1
                        clear hE C1 C2 C3 C4 C5 hBB t4 hb4
                        go_wp2_with fail
                        refine wp_region_lat (by kernel_rfl) (by kernel_rfl) ?_
                        repeat (go_big_quiet_step ((first | (go_at_call 16; exact CE.out _))))
                        refine wpQuiet_nil ?_
                        rintro _ ⟨p, rfl⟩
                        obtain ⟨w8, hw8⟩ : ∃ W, W = p.W := ⟨_, rfl⟩
                        have j0 : w8.cell? ⟨ga, oa + k, none⟩ = some (.string X) := by rw [hw8]; exact ly0 p
                        have j1 : w8.cell? ⟨gb, ob + k, none⟩ = some (.string Y) := by rw [hw8]; exact ly1 p
                        have j2 : ga < w8.heap.size := by rw [hw8]; exact p.lt ya
                        have j3 : gb < w8.heap.size := by rw [hw8]; exact p.lt yb
                        have j4 : Below w7.heap.size w7 w8 := by rw [hw8]; exact p.below
                        rw [← hw8]
                        clear hw8 p ly0 ly1
                        all_goals
                          have hB8 := below_next HBZ.out j4
                          have hrow8 := ownA_below HROWZ.out j4
                          have HKN := Lib.hid (qKnown u9 acc X (by have := HAL.out; omega) w8 (attrRow_of hrow8))
                          obtain ⟨kn, hkn⟩ : ∃ kn, kn = knownL acc X.data.toList := ⟨_, rfl⟩
                          rw [← hkn] at HKN
                          have HKNE := Lib.hid hkn
                          have HB8 := Lib.hid hB8
                          have HROW8 := Lib.hid hrow8
                          obtain ⟨V2, hV2⟩ : ∃ V2, V2 = V ++ ⟨#[32]⟩ ++ X ++ ⟨#[61, 34]⟩ ++ E ++ ⟨#[34]⟩ := ⟨_, rfl⟩
                          have hstr : V2.data.toList = ((pairL ns vs).take (k + 1)).flatMap (fun p => attrS p.1 p.2) := by
                            rw [hV2]; exact str_snoc hla hlb HX.out.1 HX.out.2 HVV.out (by rw [HEE.out]; rfl)
                          have hsz2 : V2.size ≤ (k + 1) * 30000 := by
                            rw [hV2]
                            simp only [ByteArray.size_append]
                            have e1 : (⟨#[32]⟩ : ByteArray).size = 1 := rfl
                            have e2 : (⟨#[61, 34]⟩ : ByteArray).size = 2 := rfl
                            have e3 : (⟨#[34]⟩ : ByteArray).size = 1 := rfl
                            have := HVS.out
                            omega
                          have hall2 := all_snoc hla hlb HX.out.1 HX.out.2 HALL.out (nameOk_of HOK.out.2.2.1 HOK.out.2.2.2.1 HOK.out.2.2.2.2.1) (noz_of HOK.out.2.2.2.2.2)
                          have hfold := fold_snoc hla hlb HX.out.1 HX.out.2 HACC.out
                          have HREL := Lib.hid (And.intro hstr (And.intro hsz2 (And.intro hall2 hfold)))
                          rw [← hV2]
                          have hw8 : w1.heap.size ≤ w8.heap.size := hB8.size
                          clear hkn hB8 hrow8 hV2 hstr hsz2 hall2 hfold CE sV sX sE
                          cases kn with
                          | true =>
                            go_wp2_with fail
                            refine HKN.out.mono ?_
                            rintro e wk ⟨rfl, hbk⟩
                            go_wp2_with fail
                            go_roundw
                            case rel =>
                              refine ⟨k + 1, V2, by omega, by go_num, rfl, HREL.out.1, HREL.out.2.1, HREL.out.2.2.1, ?_, ?_, below_next HB8.out hbk⟩
                              · rw [HREL.out.2.2.2, addL_yes _ HKNE.out.symm]; have := HAL.out; omega
                              · rw [HREL.out.2.2.2, addL_yes _ HKNE.out.symm]; exact ownA_below HROW8.out hbk
                            case measure => simp [intOf]; omega
                          | false =>
                            go_wp2_with fail
                            refine HKN.out.mono ?_
                            rintro e wk ⟨rfl, hbk⟩
                            have hrowk := ownA_below HROW8.out hbk
                            have l0 := (hbk.cell (p := ⟨ga, oa + k, none⟩) j2).trans j0
                            have l1 := (hbk.cell (p := ⟨gb, ob + k, none⟩) j3).trans j1
                            have hbelk := below_next HB8.out hbk
                            have hszb : w1.heap.size ≤ wk.heap.size := hbelk.size
                            have HROWK := Lib.hid hrowk
                            have HBK := Lib.hid hbelk
                            have hl1 : acc.length + 1 ≤ 1000001 := by have := HAL.out; omega
                            obtain ⟨i0, hi0, hz0, hz1, hz2'⟩ := info_parts info_attr
                            clear hrowk hbelk hbk
                            go_wp2_with fail
                            go_region_held3 (fun w' => w'.cell? ⟨ga, oa + k, none⟩ = some (.string X) ∧ w'.cell? ⟨gb, ob + k, none⟩ = some (.string Y) ∧ Below w1.heap.size w1 w')
                              (first
                                | exact ⟨l0, l1, HBK.out⟩
                                | exact ⟨l0, l1, Below.drew HBK.out⟩
                                | exact keep3 HXA.out HXB.out HZ0.out HZ1.out (below_alloc (Below.drew HBK.out) _)
                                | exact keep3 HXA.out HXB.out HZ0.out HZ1.out (Below.drew (below_alloc HBK.out _))
                                | exact keep3 HXA.out HXB.out HZ0.out HZ1.out ((Below.drew (below_alloc HBK.out (.cells #[.int .i64 0, .string X, .string Y] 31))).grown hgrow (by simp; omega) (fun k e => (((HROWK.out.alloc (.cells #[.int .i64 0, .string X, .string Y] 31)).drew).lt k e).1)))
                              ((refine step_append_lies _ (by rfl) _ _ _ (by rfl) w1.heap.size 31 i0 (.agg #[.int .i64 0, .string ⟨#[]⟩, .string ⟨#[]⟩]) 3 40 Tryz.underlying25 hi0 hz0 hz1 hz2' rfl (by decide) u9 acc.length (attrCells acc) (by rfl) ((HROWK.out.alloc _).drew) ⟨wk.heap.size, 0, none⟩ 1 1 [.int .i64 0, .string X, .string Y] (by rfl) (by rfl) (World.news_of_block (cs := #[.int .i64 0, .string X, .string Y]) (t := 31) (fr := (0, 0)) (heap_alloc_new wk _)) (by simp [Value.oneCell']) (by omega) (by unfold maxLen; omega) (by omega) (by simp; omega) (wk.heap.size + 1) (by simp) ?_; intro gg cap wc hown' hgrow hat hlt'))
                            have HOWN := Lib.hid hown'
                            have hbc : Below w1.heap.size w1 wc := (Below.drew (below_alloc HBK.out (.cells #[.int .i64 0, .string X, .string Y] 31))).grown hgrow (by simp; omega) (fun k e => (((HROWK.out.alloc (.cells #[.int .i64 0, .string X, .string Y] 31)).drew).lt k e).1)
                            have HBC := Lib.hid hbc
                            clear hown' hgrow hbc
                            go_wp2_with fail
                            go_roundw
                            case rel =>
                              refine ⟨k + 1, V2, by omega, by go_num, rfl, HREL.out.1, HREL.out.2.1, HREL.out.2.2.1, ?_, ?_, HBC.out⟩
                              · rw [HREL.out.2.2.2, addL_no _ HKNE.out.symm, List.length_append]; have := HAL.out; show acc.length + 1 ≤ _; omega
                              · rw [HREL.out.2.2.2, addL_no _ HKNE.out.symm, List.length_append, attrCells_snoc, bl_of, bl_of]
                                exact HOWN.out
                            case measure => simp [intOf]; omega
              · skip
                have C1 : Hid (∀ p : Lat wr, Calls Tryz.prog 11 #[.string X] p.W fun e w2 => e = .returned (.bool true) ∧ ∃ q : Lat wr, w2 = q.W) := Lib.hid (by
                  intro p
                  have h := small02 X p.W
                  rw [decide_eq_true hb1] at h
                  exact lat_same h)
                have C2 : Hid (∀ p : Lat wr, Calls Tryz.prog 11 #[.string Y] p.W fun e w2 => e = .returned (.bool false) ∧ ∃ q : Lat wr, w2 = q.W) := Lib.hid (by
                  intro p
                  have h := small02 Y p.W
                  rw [decide_eq_false hb2] at h
                  exact lat_same h)
                clear hb1 hb2 HX
                refine wp_region_lat (by kernel_rfl) (by kernel_rfl) ?_
                repeat (go_big_quiet_step ((first | (go_at_call 11; exact C1.out _) | (go_at_call 11; exact C2.out _))))
                refine wpQuiet_nil ?_
                rintro _ ⟨p, rfl⟩
                have hbz := below_next hBB p.below
                have HBZ := Lib.hid hbz
                have HKn := Lib.hid (known02 m _ (HC.out.below hbz) (carry HM.out hbz))
                clear hbz hBB
                go_wp2_with fail
                refine HKn.out.mono ?_
                rintro e w5 ⟨rfl, hs⟩
                go_wp2_with fail
                go_ret
                exact ⟨rfl, below_next HBZ.out hs⟩
            · skip
              have C1 : Hid (∀ p : Lat wr, Calls Tryz.prog 11 #[.string X] p.W fun e w2 => e = .returned (.bool false) ∧ ∃ q : Lat wr, w2 = q.W) := Lib.hid (by
                intro p
                have h := small02 X p.W
                rw [decide_eq_false hb1] at h
                exact lat_same h)
              clear hb1 HX
              refine wp_region_lat (by kernel_rfl) (by kernel_rfl) ?_
              repeat (go_big_quiet_step ((first | (go_at_call 11; exact C1.out _))))
              refine wpQuiet_nil ?_
              rintro _ ⟨p, rfl⟩
              have hbz := below_next hBB p.below
              have HBZ := Lib.hid hbz
              have HKn := Lib.hid (known02 m _ (HC.out.below hbz) (carry HM.out hbz))
              clear hbz hBB
              go_wp2_with fail
              refine HKn.out.mono ?_
              rintro e w5 ⟨rfl, hs⟩
              go_wp2_with fail
              go_ret
              exact ⟨rfl, below_next HBZ.out hs⟩
          · have hkI2 : ¬ (k : Int) < (n : Int) := by omega
            have hkn : k = n := by omega
            have hVf := HVV.out
            have hAf := HALL.out
            have hCf := HACC.out
            rw [hkn, HN.out, pairL_all ns vs (by rw [← HN.out, ← HV.out])] at hVf hAf hCf
            cases self with
            | true =>
              have hsz : (V ++ ⟨#[47]⟩ ++ ⟨#[62]⟩ ++ more).size ≤ 1000000 := by
                simp only [ByteArray.size_append]
                have e1 : (⟨#[47]⟩ : ByteArray).size = 1 := rfl
                have e2 : (⟨#[62]⟩ : ByteArray).size = 1 := rfl
                have := HVS.out
                have := H1.out
                omega
              have htl : tlS (V ++ ⟨#[47]⟩ ++ ⟨#[62]⟩ ++ more) 0 = (pairL ns vs).flatMap (fun p => attrS p.1 p.2) ++ (if true then [47, 62] else [62]) ++ more.data.toList := by
                rw [← hVf]
                unfold tlS
                rw [show clip (V ++ ⟨#[47]⟩ ++ ⟨#[62]⟩ ++ more) 0 = 0 by unfold clip; omega]
                simp [ByteArray.data_append, List.append_assoc]
              have hback := atL_back (pairL ns vs) true more.data.toList hAf
              rw [← htl, hCf] at hback
              have HBACK := Lib.hid hback
              have HAT := Lib.hid (attributesC lgL (Lib.hid lgOk) (V ++ ⟨#[47]⟩ ++ ⟨#[62]⟩ ++ more) 0 m hsz wr (HC.out.below hBB) (carry HM.out hBB))
              have hsV : V.size ≤ 400000 := by have := HVS.out; omega
              have hsM : more.size ≤ 4096 := H1.out
              clear htl hback hVf hAf hCf hsz
              go_wp2_with fail
              refine HAT.out.mono ?_
              rintro e w4 ⟨v, sc, cl, N, acc2, rfl, hb2, _, hN, hown, hal2, hor⟩
              rcases hor with ⟨rfl, h⟩ | ⟨_, _, _, _, _, h⟩
              · rw [HBACK.out] at h
                simp only [Option.some.injEq, Prod.mk.injEq] at h
                obtain ⟨rfl, rfl, hd⟩ := h
                have hNN : N = V.size + 2 := by
                  have hl := congrArg List.length hd
                  rw [List.length_drop, size_list, size_list, ByteArray.size_append] at hl
                  rw [ByteArray.size_append] at hN
                  have e1 : (V ++ ⟨#[47]⟩ ++ ⟨#[62]⟩).size = V.size + 2 := by simp only [ByteArray.size_append]; rfl
                  omega
                subst hNN
                have hb4 := below_next HBB.out hb2
                have HB4 := Lib.hid hb4
                have HSA := Lib.hid (sameAttrs _ _ acc (by have := HAL.out; omega) w4 (attrRow_of hown) (attrRow_of (ownA_below HROW.out hb2)))
                clear hb4 hown hd hal2 hN
                go_wp2_with fail
                refine HSA.out.mono ?_
                rintro e w5 ⟨rfl, hb5⟩
                have hb6 := below_next HB4.out hb5
                have HB6 := Lib.hid hb6
                have HKn := Lib.hid (known02 m _ (HC.out.below hb6) (carry HM.out hb6))
                clear hb6 hb5
                go_wp2_with fail
                refine HKn.out.mono ?_
                rintro e w6 ⟨rfl, hs⟩
                go_wp2_with fail
                go_ret
                exact ⟨rfl, below_next HB6.out hs⟩
              · rw [HBACK.out] at h; cases h
            | false =>
              have hsz : (V ++ ⟨#[62]⟩ ++ more).size ≤ 1000000 := by
                simp only [ByteArray.size_append]
                have e1 : (⟨#[47]⟩ : ByteArray).size = 1 := rfl
                have e2 : (⟨#[62]⟩ : ByteArray).size = 1 := rfl
                have := HVS.out
                have := H1.out
                omega
              have htl : tlS (V ++ ⟨#[62]⟩ ++ more) 0 = (pairL ns vs).flatMap (fun p => attrS p.1 p.2) ++ (if false then [47, 62] else [62]) ++ more.data.toList := by
                rw [← hVf]
                unfold tlS
                rw [show clip (V ++ ⟨#[62]⟩ ++ more) 0 = 0 by unfold clip; omega]
                simp [ByteArray.data_append, List.append_assoc]
              have hback := atL_back (pairL ns vs) false more.data.toList hAf
              rw [← htl, hCf] at hback
              have HBACK := Lib.hid hback
              have HAT := Lib.hid (attributesC lgL (Lib.hid lgOk) (V ++ ⟨#[62]⟩ ++ more) 0 m hsz wr (HC.out.below hBB) (carry HM.out hBB))
              have hsV : V.size ≤ 400000 := by have := HVS.out; omega
              have hsM : more.size ≤ 4096 := H1.out
              clear htl hback hVf hAf hCf hsz
              go_wp2_with fail
              refine HAT.out.mono ?_
              rintro e w4 ⟨v, sc, cl, N, acc2, rfl, hb2, _, hN, hown, hal2, hor⟩
              rcases hor with ⟨rfl, h⟩ | ⟨_, _, _, _, _, h⟩
              · rw [HBACK.out] at h
                simp only [Option.some.injEq, Prod.mk.injEq] at h
                obtain ⟨rfl, rfl, hd⟩ := h
                have hNN : N = V.size + 1 := by
                  have hl := congrArg List.length hd
                  rw [List.length_drop, size_list, size_list, ByteArray.size_append] at hl
                  rw [ByteArray.size_append] at hN
                  have e1 : (V ++ ⟨#[62]⟩).size = V.size + 1 := by simp only [ByteArray.size_append]; rfl
                  omega
                subst hNN
                have hb4 := below_next HBB.out hb2
                have HB4 := Lib.hid hb4
                have HSA := Lib.hid (sameAttrs _ _ acc (by have := HAL.out; omega) w4 (attrRow_of hown) (attrRow_of (ownA_below HROW.out hb2)))
                clear hb4 hown hd hal2 hN
                go_wp2_with fail
                refine HSA.out.mono ?_
                rintro e w5 ⟨rfl, hb5⟩
                have hb6 := below_next HB4.out hb5
                have HB6 := Lib.hid hb6
                have HKn := Lib.hid (known02 m _ (HC.out.below hb6) (carry HM.out hb6))
                clear hb6 hb5
                go_wp2_with fail
                refine HKn.out.mono ?_
                rintro e w6 ⟨rfl, hs⟩
                go_wp2_with fail
                go_ret
                exact ⟨rfl, below_next HB6.out hs⟩
              · rw [HBACK.out] at h; cases h
      · rw [decide_eq_false h1] at HS1
        clear h1
        have t12 : decide ((12 : Int) < (n : Int)) = false := decide_eq_false (by omega)
        have tnn : ((n : Int) != (n : Int)) = false := by simp
        go_enter Tryz.func3, Tryz.ntmps3
        go_wp2_with fail
        refine (HS1.out w).mono ?_
        rintro e w1 ⟨rfl, rfl⟩
        go_wp2_with fail
        refine HK.out.mono ?_
        rintro e w4 ⟨rfl, hb⟩
        go_wp2_with fail
        go_ret
        exact ⟨rfl, hb⟩
    · have tnn : ((n : Int) == (nv : Int)) = false := by rw [beq_eq_false_iff_ne]; omega
      have tn2 : ((n : Int) != (nv : Int)) = true := by rw [bne_iff_ne]; omega
      have hnI : ¬ (n : Int) = (nv : Int) := by omega
      go_enter Tryz.func3, Tryz.ntmps3
      go_wp2_with fail
      refine HK.out.mono ?_
      rintro e w4 ⟨rfl, hb⟩
      go_wp2_with fail
      go_ret
      exact ⟨rfl, hb⟩
  · have hI : (n : Int) > 12 := by omega
    have hI2 : (12 : Int) < (n : Int) := by omega
    go_enter Tryz.func3, Tryz.ntmps3
    go_wp2_with fail
    refine HK.out.mono ?_
    rintro e w4 ⟨rfl, hb⟩
    go_wp2_with fail
    go_ret
    exact ⟨rfl, hb⟩
end Go.Proofs.YtnfccckodgknjaaGreatDoor
