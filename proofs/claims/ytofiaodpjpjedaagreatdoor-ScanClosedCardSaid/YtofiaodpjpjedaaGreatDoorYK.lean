/-
  What was closed stays as it is if more bytes follow. No program in sight.
  Data of comments is read back; what any comment is read as is such data. No program in sight.
  The first mark, and the first end of a comment, in the document's words. No program in sight.
  More bytes behind a string: what its readers come to.
  Lists of attributes and tokens that hold the same are the same to the document.
  ScanClosed: what was closed stays as it is if more bytes follow.
  The frame of the rows that list the table of the controls as well.
-/
import Derived.Test.YtofiaodpjpjedaaGreatDoorY13
import Derived.Test.YtofiaodpjpjedaaGreatDoorY03
import Derived.Test.YtofiaodpjpjedaaGreatDoorY33
import Derived.Test.YtofiaodpjpjedaaGreatDoorY41
import Derived.Test.YtofiaodpjpjedaaGreatDoorY46
import Derived.Test.YtofiaodpjpjedaaGreatDoorY40
import Derived.Test.YtofiaodpjpjedaaGreatDoorKs3
import Derived.Test.YtofiaodpjpjedaaGreatDoorY28
import Derived.Test.YtofiaodpjpjedaaGreatDoorY27
namespace Go.Proofs.YtofiaodpjpjedaaGreatDoor
open Go.Lib

theorem comM_more : ∀ (k : Nat) (t m : List UInt8), (comM k t).2 < t.length → comM k (t ++ m) = comM k t
  | k, [], m, h => absurd h (by simp)
  | 0, b :: t, m, h => by
    rw [List.cons_append, comM, comM]
    rw [comM] at h
    by_cases c : b = 45
    · rw [if_pos c] at h ⊢; rw [if_pos c, comM_more 1 t m (by simp [pre] at h; omega)]
    · rw [if_neg c] at h ⊢; rw [if_neg c, comM_more 0 t m (by simp [pre] at h; omega)]
  | 1, b :: t, m, h => by
    rw [List.cons_append, comM, comM]
    rw [comM] at h
    by_cases c : b = 45
    · rw [if_pos c] at h ⊢; rw [if_pos c, comM_more 2 t m (by simp [pre] at h; omega)]
    · rw [if_neg c] at h ⊢; rw [if_neg c, comM_more 0 t m (by simp [pre] at h; omega)]
  | 2, b :: t, m, h => by
    rw [List.cons_append, comM, comM]
    rw [comM] at h
    by_cases c : b = 62
    · rw [if_pos c, if_pos c]
    · rw [if_neg c] at h ⊢; rw [if_neg c]
      by_cases c : b = 33
      · rw [if_pos c] at h ⊢; rw [if_pos c, comM_more 3 t m (by simp [pre] at h; omega)]
      · rw [if_neg c] at h ⊢; rw [if_neg c]
        by_cases c : b = 45
        · rw [if_pos c] at h ⊢; rw [if_pos c, comM_more 2 t m (by simp [pre] at h; omega)]
        · rw [if_neg c] at h ⊢; rw [if_neg c, comM_more 0 t m (by simp [pre] at h; omega)]
  | k + 3, b :: t, m, h => by
    have e : ∀ t, comM (k + 3) (b :: t) = if b = 62 then ([], 1) else if b = 45 then pre [45, 45, 33] 1 (comM 1 t) else pre (45 :: 45 :: 33 :: nul1 b) 1 (comM 0 t) := fun t => by rw [comM] <;> simp
    rw [List.cons_append, e, e]
    rw [e] at h
    by_cases c : b = 62
    · rw [if_pos c, if_pos c]
    · rw [if_neg c] at h ⊢; rw [if_neg c]
      by_cases c : b = 45
      · rw [if_pos c] at h ⊢; rw [if_pos c, comM_more 1 t m (by simp [pre] at h; omega)]
      · rw [if_neg c] at h ⊢; rw [if_neg c, comM_more 0 t m (by simp [pre] at h; omega)]
theorem comS_more (t m : List UInt8) (h : (comS t).2 < t.length) : comS (t ++ m) = comS t := by
  rw [← (com_all t).1] at h ⊢
  rw [← (com_all (t ++ m)).1]
  exact comM_more 0 t m h
theorem pref_app {p t m : List UInt8} (h : p.isPrefixOf t = true) : p.isPrefixOf (t ++ m) = true := by
  rw [List.isPrefixOf_iff_prefix] at h ⊢
  exact h.trans (List.prefix_append _ _)
theorem comL_more (t m : List UInt8) (h : (comL t).2 < t.length) : comL (t ++ m) = comL t := by
  unfold comL at h ⊢
  by_cases c1 : [62].isPrefixOf t = true
  · rw [if_pos c1, if_pos (pref_app c1)]
  · rw [if_neg c1] at h ⊢
    by_cases c2 : [45, 62].isPrefixOf t = true
    · rw [if_pos c2, if_pos (pref_app c2)]
      have : ¬ [62].isPrefixOf (t ++ m) = true := by
        cases t with
        | nil => simp [List.isPrefixOf] at c2
        | cons b t => simpa [List.isPrefixOf] using c1
      rw [if_neg this]
    · rw [if_neg c2] at h ⊢
      have h1 : ¬ [62].isPrefixOf (t ++ m) = true := by
        cases t with
        | nil => simp at h
        | cons b t => simpa [List.isPrefixOf] using c1
      have h2 : ¬ [45, 62].isPrefixOf (t ++ m) = true := by
        rcases t with _ | ⟨a, _ | ⟨b, t⟩⟩
        · simp at h
        · have h45 : a ≠ 45 := by
            rintro rfl
            rw [show comS [45] = ([], 1) from rfl] at h
            simp at h
          simp [List.isPrefixOf]; exact fun e => absurd e.symm h45
        · simpa [List.isPrefixOf] using c2
      rw [if_neg h1, if_neg h2, comS_more t m h]

theorem runN_more (q : UInt8 → Bool) (m : List UInt8) : ∀ t : List UInt8, runN q t < t.length → runN q (t ++ m) = runN q t
  | [], h => absurd h (by simp)
  | b :: t, h => by
    rw [List.cons_append]
    cases hq : q b
    · rw [runN_no _ hq, runN_no _ hq, runN_more q m t (by rw [runN_no _ hq] at h; simpa using h)]
    · rw [runN_yes _ hq, runN_yes _ hq]
theorem drop_more (t m : List UInt8) (n : Nat) (h : n ≤ t.length) : (t ++ m).drop n = t.drop n ++ m := by rw [List.drop_append_of_le_length h]
theorem take_more (t m : List UInt8) (n : Nat) (h : n ≤ t.length) : (t ++ m).take n = t.take n := List.take_append_of_le_length h
theorem runN_lt {q : UInt8 → Bool} {t : List UInt8} (h : t.drop (runN q t) ≠ []) : runN q t < t.length := by
  rcases Nat.lt_or_ge (runN q t) t.length with h' | h'
  · exact h'
  · exact absurd (List.drop_eq_nil_of_le h') h
theorem sk_more (t m : List UInt8) (h : sk t ≠ []) : sk (t ++ m) = sk t ++ m := by
  unfold sk at h ⊢
  have hl := runN_lt h
  rw [runN_more _ m t hl, drop_more _ _ _ (Nat.le_of_lt hl)]

/-- A result with something left stays, with more behind. -/
def Stays (F : List UInt8 → DocT × List UInt8) : Prop := ∀ t m, (F t).2 ≠ [] → F (t ++ m) = ((F t).1, (F t).2 ++ m)
theorem upTo62_more (t m : List UInt8) (h : upTo62 t ≠ []) : upTo62 (t ++ m) = upTo62 t ++ m := by
  unfold upTo62 at h ⊢
  have hd : t.drop (runN (fun b => b == 62) t) ≠ [] := by intro e; rw [e] at h; simp at h
  have hl := runN_lt hd
  rw [runN_more _ m t hl, drop_more _ _ _ (Nat.le_of_lt hl), drop_more]
  rw [List.length_drop]; omega
theorem kBogus_more (T : DocT) : Stays (kBogus T) := by
  intro t m h
  show (T, upTo62 (t ++ m)) = (T, upTo62 t ++ m)
  rw [upTo62_more t m h]
theorem kAfterSystem_more (T : DocT) : Stays (kAfterSystem T) := by
  intro t m h
  unfold kAfterSystem at h ⊢
  by_cases c : sk t = []
  · rw [if_pos c] at h; simp at h
  · rw [if_neg c] at h ⊢
    have e := sk_more t m c
    rw [e, if_neg (by simp [c]), kBogus_more T _ m h]
theorem kInSystem_more (q : UInt8) (T : DocT) : Stays (kInSystem q T) := by
  intro t m h
  unfold kInSystem at h ⊢
  cases hd : t.drop (idN q t) with
  | nil => rw [hd] at h; simp at h
  | cons c r =>
    have hl : idN q t < t.length := runN_lt (by show t.drop (idN q t) ≠ []; rw [hd]; simp)
    have e1 : idN q (t ++ m) = idN q t := runN_more _ m t hl
    rw [hd] at h
    rw [e1, drop_more _ _ _ (Nat.le_of_lt hl), take_more _ _ _ (Nat.le_of_lt hl), hd]
    simp only [List.cons_append] at h ⊢
    by_cases cq : c = q
    · rw [if_pos cq] at h ⊢; rw [if_pos cq]
      exact kAfterSystem_more _ r m h
    · rw [if_neg cq] at h ⊢; rw [if_neg cq]
theorem kBeforeSystem_more (g : Bool) (T : DocT) : Stays (kBeforeSystem g T) := by
  intro t m h
  unfold kBeforeSystem at h ⊢
  cases hs : sk t with
  | nil => rw [hs] at h; simp at h
  | cons c r =>
    rw [sk_more t m (by rw [hs]; simp), hs]
    rw [hs] at h
    simp only [List.cons_append] at h ⊢
    by_cases c1 : c = 62
    · rw [if_pos c1, if_pos c1]
    · rw [if_neg c1] at h ⊢; rw [if_neg c1]
      by_cases c2 : quU c = true
      · rw [if_pos c2] at h ⊢; rw [if_pos c2]; exact kInSystem_more _ _ r m h
      · rw [if_neg c2] at h ⊢; rw [if_neg c2]; exact kBogus_more _ (c :: r) m h
theorem kInPublic_more (q : UInt8) (T : DocT) : Stays (kInPublic q T) := by
  intro t m h
  unfold kInPublic at h ⊢
  cases hd : t.drop (idN q t) with
  | nil => rw [hd] at h; simp at h
  | cons c r =>
    have hl : idN q t < t.length := runN_lt (by show t.drop (idN q t) ≠ []; rw [hd]; simp)
    have e1 : idN q (t ++ m) = idN q t := runN_more _ m t hl
    rw [hd] at h
    rw [e1, drop_more _ _ _ (Nat.le_of_lt hl), take_more _ _ _ (Nat.le_of_lt hl), hd]
    simp only [List.cons_append] at h ⊢
    by_cases cq : c = q
    · rw [if_pos cq] at h ⊢; rw [if_pos cq]
      exact kBeforeSystem_more _ _ r m h
    · rw [if_neg cq] at h ⊢; rw [if_neg cq]
theorem kBeforePublic_more (T : DocT) : Stays (kBeforePublic T) := by
  intro t m h
  unfold kBeforePublic at h ⊢
  cases hs : sk t with
  | nil => rw [hs] at h; simp at h
  | cons c r =>
    rw [sk_more t m (by rw [hs]; simp), hs]
    rw [hs] at h
    simp only [List.cons_append] at h ⊢
    by_cases c1 : c = 62
    · rw [if_pos c1, if_pos c1]
    · rw [if_neg c1] at h ⊢; rw [if_neg c1]
      by_cases c2 : quU c = true
      · rw [if_pos c2] at h ⊢; rw [if_pos c2]; exact kInPublic_more _ _ r m h
      · rw [if_neg c2] at h ⊢; rw [if_neg c2]; exact kBogus_more _ (c :: r) m h
theorem kAfterName_more (T : DocT) : Stays (kAfterName T) := by
  intro t m h
  unfold kAfterName at h ⊢
  cases hs : sk t with
  | nil => rw [hs] at h; simp at h
  | cons c r =>
    rw [sk_more t m (by rw [hs]; simp), hs]
    rw [hs] at h
    simp only at h
    rw [show c :: r ++ m = c :: (r ++ m) from rfl]
    simp only
    by_cases c1 : c = 62
    · rw [if_pos c1, if_pos c1]
    · rw [if_neg c1] at h ⊢; rw [if_neg c1]
      rw [show c :: (r ++ m) = (c :: r) ++ m from rfl]
      generalize hu : c :: r = u at h ⊢
      by_cases h6 : 6 ≤ u.length
      · rw [take_more _ _ _ h6, drop_more _ _ _ h6]
        by_cases c2 : lowL (u.take 6) = sPublic
        · rw [if_pos c2] at h ⊢; rw [if_pos c2]; exact kBeforePublic_more _ _ m h
        · rw [if_neg c2] at h ⊢; rw [if_neg c2]
          by_cases c3 : lowL (u.take 6) = sSystem
          · rw [if_pos c3] at h ⊢; rw [if_pos c3]; exact kBeforeSystem_more _ _ _ m h
          · rw [if_neg c3] at h ⊢; rw [if_neg c3]; exact kBogus_more _ _ m h
      · have n1 : lowL (u.take 6) ≠ sPublic := by
          intro e
          have := congrArg List.length e
          simp [lowL, sPublic] at this
          omega
        have n2 : lowL (u.take 6) ≠ sSystem := by
          intro e
          have := congrArg List.length e
          simp [lowL, sSystem] at this
          omega
        rw [if_neg n1, if_neg n2] at h ⊢
        have h62 : (62 : UInt8) ∈ u := by
          have h' : upTo62 u ≠ [] := h
          unfold upTo62 at h'
          rcases runN_drop (fun b => b == 62) u with e | ⟨b, x, e, hb⟩
          · rw [e] at h'; simp at h'
          · have : b = 62 := by simpa using hb
            subst this
            have : (62 : UInt8) ∈ u.drop (runN (fun b => b == 62) u) := by rw [e]; simp
            exact List.mem_of_mem_drop this
        have key : ∀ w : List UInt8, (62 : UInt8) ∉ w → lowL ((u ++ m).take 6) ≠ w := by
          intro w hw e
          apply hw
          rw [← e]
          have hm : (62 : UInt8) ∈ (u ++ m).take 6 := by
            rw [List.take_append, List.take_of_length_le (by omega)]
            exact List.mem_append_left _ h62
          exact List.mem_map.2 ⟨62, hm, rfl⟩
        rw [if_neg (key sPublic (by decide)), if_neg (key sSystem (by decide))]
        exact kBogus_more _ _ m h
theorem docL_more : Stays docL := by
  intro t m h
  unfold docL kBeforeName at h ⊢
  cases hs : sk t with
  | nil => rw [hs] at h; simp at h
  | cons c r =>
    rw [sk_more t m (by rw [hs]; simp), hs]
    rw [hs] at h
    simp only at h
    rw [show c :: r ++ m = c :: (r ++ m) from rfl]
    simp only
    by_cases c1 : c = 62
    · rw [if_pos c1, if_pos c1]
    · rw [if_neg c1] at h ⊢; rw [if_neg c1]
      rw [show c :: (r ++ m) = (c :: r) ++ m from rfl]
      generalize c :: r = u at h ⊢
      unfold kInName at h ⊢
      have hd : u.drop (runN ewU u) ≠ [] := by
        intro e
        rw [e] at h
        exact h rfl
      have hl := runN_lt hd
      rw [runN_more _ m u hl, drop_more _ _ _ (Nat.le_of_lt hl), take_more _ _ _ (Nat.le_of_lt hl)]
      exact kAfterName_more _ _ m h

theorem vaL_more {R : RefF} {t v x : List UInt8} (m : List UInt8) (h : vaL R t = some (v, x)) : vaL R (t ++ m) = some (v, x ++ m) := by
  unfold vaL at h ⊢
  cases hs : sk t with
  | nil => rw [hs] at h; simp at h
  | cons c r =>
    rw [sk_more t m (by rw [hs]; simp), hs]
    rw [hs] at h
    simp only at h
    rw [show c :: r ++ m = c :: (r ++ m) from rfl]
    simp only
    by_cases c1 : quU c = true
    · rw [if_pos c1] at h ⊢
      by_cases c2 : runN (fun b => b == c) r < r.length
      · rw [if_pos c2] at h
        simp only [Option.some.injEq, Prod.mk.injEq] at h
        rw [runN_more _ m r c2, if_pos (by rw [List.length_append]; omega), take_more _ _ _ (Nat.le_of_lt c2), drop_more _ _ _ (by omega), h.1, h.2]
      · rw [if_neg c2] at h; simp at h
    · rw [if_neg c1] at h ⊢
      rw [show c :: (r ++ m) = (c :: r) ++ m from rfl]
      by_cases c2 : runN ewU (c :: r) < (c :: r).length
      · rw [if_pos c2] at h
        simp only [Option.some.injEq, Prod.mk.injEq] at h
        rw [runN_more _ m _ c2, if_pos (by rw [List.length_append]; omega), take_more _ _ _ (Nat.le_of_lt c2), drop_more _ _ _ (Nat.le_of_lt c2), h.1, h.2]
      · rw [if_neg c2] at h; simp at h
theorem atRest_more (r m : List UInt8) (h : atRest r ≠ []) : atRest (r ++ m) = atRest r ++ m ∧ ∀ b, atName b (r ++ m) = atName b r := by
  unfold atRest at h ⊢
  have hd : r.drop (runN eqU r) ≠ [] := by
    intro e
    rw [e] at h
    exact h rfl
  have hl := runN_lt hd
  unfold atName
  rw [runN_more _ m r hl, drop_more _ _ _ (Nat.le_of_lt hl), take_more _ _ _ (Nat.le_of_lt hl), sk_more _ _ h]
  exact ⟨rfl, fun b => rfl⟩
theorem atF_none_nil (R : RefF) : ∀ (n : Nat) (acc : AttL), atF R n acc [] = none
  | 0, _ => rfl
  | _ + 1, _ => rfl
theorem atF_more (R : RefF) (m : List UInt8) : ∀ (n k : Nat) (acc l : AttL) (f : Bool) (t x : List UInt8), t.length < n → (t ++ m).length < k → atF R n acc t = some (l, f, x) → atF R k acc (t ++ m) = some (l, f, x ++ m)
  | 0, _, _, _, _, _, _, h, _, _ => absurd h (by omega)
  | n + 1, 0, _, _, _, _, _, _, h, _ => absurd h (by omega)
  | n + 1, k + 1, acc, l, f, t, x, hn, hk, h => by
    rw [List.length_append] at hk
    have hsk := sk_len t
    unfold atF at h ⊢
    cases hs : sk t with
    | nil => rw [hs] at h; simp at h
    | cons b r =>
      rw [sk_more t m (by rw [hs]; simp), hs]
      rw [hs] at h hsk
      simp only [List.length_cons] at hsk
      simp only at h
      rw [show b :: r ++ m = b :: (r ++ m) from rfl]
      simp only
      by_cases c1 : b = 62
      · rw [if_pos c1] at h ⊢
        simp only [Option.some.injEq, Prod.mk.injEq] at h
        rw [h.1, h.2.1, h.2.2]
      · rw [if_neg c1] at h ⊢
        by_cases c2 : b = 47
        · rw [if_pos c2] at h ⊢
          have hr0 : r ≠ [] := by
            rintro rfl
            rw [if_neg (by simp), atF_none_nil] at h
            simp at h
          have hh : (r ++ m).head? = r.head? := by cases r with | nil => exact absurd rfl hr0 | cons d r => rfl
          have hdr : (r ++ m).drop 1 = r.drop 1 ++ m := by cases r with | nil => exact absurd rfl hr0 | cons d r => rfl
          rw [hh, hdr]
          by_cases c3 : r.head? = some 62
          · rw [if_pos c3] at h ⊢
            simp only [Option.some.injEq, Prod.mk.injEq] at h
            rw [h.1, h.2.1, h.2.2]
          · rw [if_neg c3] at h ⊢
            exact atF_more R m n k acc l f r x (by omega) (by rw [List.length_append]; omega) h
        · rw [if_neg c2] at h ⊢
          have hal := atRest_len r
          have hu0 : atRest r ≠ [] := by
            intro e
            rw [e, if_neg (by simp), atF_none_nil] at h
            simp at h
          obtain ⟨e1, e2⟩ := atRest_more r m hu0
          have hh : (atRest r ++ m).head? = (atRest r).head? := by cases hq : atRest r with | nil => exact absurd hq hu0 | cons d r => rfl
          have hdr : (atRest r ++ m).drop 1 = (atRest r).drop 1 ++ m := by cases hq : atRest r with | nil => exact absurd hq hu0 | cons d r => rfl
          rw [e1, e2 b, hh, hdr]
          by_cases c3 : (atRest r).head? = some 61
          · rw [if_pos c3] at h ⊢
            cases hv : vaL R ((atRest r).drop 1) with
            | none => rw [hv] at h; simp at h
            | some p =>
              obtain ⟨v, y⟩ := p
              have hy := vaL_len hv
              rw [List.length_drop] at hy
              rw [hv] at h
              rw [vaL_more m hv]
              exact atF_more R m n k _ l f y x (by omega) (by rw [List.length_append]; omega) h
          · rw [if_neg c3] at h ⊢
            exact atF_more R m n k _ l f (atRest r) x (by omega) (by rw [List.length_append]; omega) h
theorem atL_more {R : RefF} {t x : List UInt8} {l : AttL} {f : Bool} (m : List UInt8) (h : atL R t = some (l, f, x)) : atL R (t ++ m) = some (l, f, x ++ m) :=
  atF_more R m _ _ _ _ _ _ _ (by omega) (by omega) h
end Go.Proofs.YtofiaodpjpjedaaGreatDoor

namespace Go.Proofs.YtofiaodpjpjedaaGreatDoor
open Go.Lib
set_option maxRecDepth 100000

def noEnd : List UInt8 → Bool
  | [] => true
  | b :: t => !([45, 45, 62].isPrefixOf (b :: t)) && !([45, 45, 33, 62].isPrefixOf (b :: t)) && noEnd t
def fitL (l : List UInt8) : Bool := !([62].isPrefixOf l) && !([45, 62].isPrefixOf l) && noEnd l

/-- Where no comment ends, a byte is data. -/
theorem comS_or (b : UInt8) (t : List UInt8) : (comS (b :: t)).1 = [] ∨ (comS (b :: t) = pre (nul1 b) 1 (comS t) ∧ [45, 45, 62].isPrefixOf (b :: t) = false ∧ [45, 45, 33, 62].isPrefixOf (b :: t) = false) := by
  rw [comS]
  by_cases h1 : [45, 45, 62].isPrefixOf (b :: t) = true
  · rw [if_pos h1]; exact .inl rfl
  · rw [if_neg h1]
    by_cases h2 : [45, 45, 33, 62].isPrefixOf (b :: t) = true
    · rw [if_pos h2]; exact .inl rfl
    · rw [if_neg h2]
      split
      · exact .inl rfl
      · split
        · exact .inl rfl
        · split
          · exact .inl rfl
          · exact .inr ⟨rfl, Bool.eq_false_iff.2 h1, Bool.eq_false_iff.2 h2⟩
theorem comS_hd {c : UInt8} (hc : c ≠ 239) : ∀ {t x : List UInt8}, (comS t).1 = c :: x → ∃ t', t = c :: t' ∧ (comS t').1 = x ∧ [45, 45, 62].isPrefixOf t = false ∧ [45, 45, 33, 62].isPrefixOf t = false
  | [], _, h => by cases h
  | b :: t, x, h => by
    rcases comS_or b t with h0 | ⟨h1, h2, h3⟩
    · rw [h0] at h; cases h
    · rw [h1] at h
      have h' : nul1 b ++ (comS t).1 = c :: x := h
      unfold nul1 at h'
      by_cases hb : b = 0
      · rw [if_pos hb] at h'
        injection h' with h4 _
        exact absurd h4.symm hc
      · rw [if_neg hb] at h'
        injection h' with h4 h5
        subst h4
        exact ⟨t, rfl, h5, h2, h3⟩
theorem pre_of {p l : List UInt8} (h : p.isPrefixOf l = true) : ∃ r, l = p ++ r := by
  obtain ⟨r, hr⟩ := List.isPrefixOf_iff_prefix.1 h
  exact ⟨r, hr.symm⟩
theorem comS_no1 (t : List UInt8) : [45, 45, 62].isPrefixOf (comS t).1 = false := by
  rw [Bool.eq_false_iff]
  intro h
  obtain ⟨r, hr⟩ := pre_of h
  obtain ⟨t1, rfl, h1, hn, _⟩ := comS_hd (by decide) hr
  obtain ⟨t2, rfl, h2, _, _⟩ := comS_hd (by decide) h1
  obtain ⟨t3, rfl, h3, _, _⟩ := comS_hd (by decide) h2
  simp [List.isPrefixOf] at hn
theorem comS_no2 (t : List UInt8) : [45, 45, 33, 62].isPrefixOf (comS t).1 = false := by
  rw [Bool.eq_false_iff]
  intro h
  obtain ⟨r, hr⟩ := pre_of h
  obtain ⟨t1, rfl, h1, _, hn⟩ := comS_hd (by decide) hr
  obtain ⟨t2, rfl, h2, _, _⟩ := comS_hd (by decide) h1
  obtain ⟨t3, rfl, h3, _, _⟩ := comS_hd (by decide) h2
  obtain ⟨t4, rfl, h4, _, _⟩ := comS_hd (by decide) h3
  simp [List.isPrefixOf] at hn
theorem comS_noEnd : ∀ t : List UInt8, noEnd (comS t).1 = true
  | [] => rfl
  | b :: t => by
    have ih := comS_noEnd t
    have n1 := comS_no1 (b :: t)
    have n2 := comS_no2 (b :: t)
    rcases comS_or b t with h0 | ⟨h1, _, _⟩
    · rw [h0]; rfl
    · rw [h1] at n1 n2 ⊢
      have e : (pre (nul1 b) 1 (comS t)).1 = nul1 b ++ (comS t).1 := rfl
      rw [e] at n1 n2 ⊢
      unfold nul1 at n1 n2 ⊢
      by_cases hb : b = 0
      · rw [if_pos hb]
        show noEnd (239 :: 191 :: 189 :: (comS t).1) = true
        simp [noEnd, List.isPrefixOf, ih]
      · rw [if_neg hb] at n1 n2 ⊢
        have n1' : [45, 45, 62].isPrefixOf (b :: (comS t).1) = false := n1
        have n2' : [45, 45, 33, 62].isPrefixOf (b :: (comS t).1) = false := n2
        show noEnd (b :: (comS t).1) = true
        rw [noEnd, n1', n2', ih]
        rfl
/-- What any comment is read as is data that is read back. -/
theorem com_fit (u : List UInt8) : fitL (comL u).1 = true := by
  unfold comL
  by_cases h1 : [62].isPrefixOf u = true
  · rw [if_pos h1]; rfl
  · rw [if_neg h1]
    by_cases h2 : [45, 62].isPrefixOf u = true
    · rw [if_pos h2]; rfl
    · rw [if_neg h2]
      unfold fitL
      have a1 : [62].isPrefixOf (comS u).1 = false := by
        rw [Bool.eq_false_iff]
        intro h
        obtain ⟨r, hr⟩ := pre_of h
        obtain ⟨t1, rfl, _, _, _⟩ := comS_hd (by decide) hr
        simp [List.isPrefixOf] at h1
      have a2 : [45, 62].isPrefixOf (comS u).1 = false := by
        rw [Bool.eq_false_iff]
        intro h
        obtain ⟨r, hr⟩ := pre_of h
        obtain ⟨t1, rfl, h3, _, _⟩ := comS_hd (by decide) hr
        obtain ⟨t2, rfl, _, _, _⟩ := comS_hd (by decide) h3
        simp [List.isPrefixOf] at h2
      rw [a1, a2, comS_noEnd]
      rfl

theorem no_end1 (b : UInt8) (d m : List UInt8) (h : [45, 45, 62].isPrefixOf (b :: d) = false) : [45, 45, 62].isPrefixOf (b :: (d ++ 45 :: 45 :: 62 :: m)) = false := by
  match d, h with
  | [], _ => simp [List.isPrefixOf]
  | [x], _ => simp [List.isPrefixOf]
  | x :: y :: d, h => simpa [List.isPrefixOf] using h
theorem no_end2 (b : UInt8) (d m : List UInt8) (h : [45, 45, 33, 62].isPrefixOf (b :: d) = false) : [45, 45, 33, 62].isPrefixOf (b :: (d ++ 45 :: 45 :: 62 :: m)) = false := by
  match d, h with
  | [], _ => simp [List.isPrefixOf]
  | [x], _ => simp [List.isPrefixOf]
  | [x, y], _ => simp [List.isPrefixOf]
  | x :: y :: z :: d, h => simpa [List.isPrefixOf] using h
theorem comS_back (m : List UInt8) : ∀ d : List UInt8, (∀ x ∈ d, x ≠ 0) → noEnd d = true → comS (d ++ 45 :: 45 :: 62 :: m) = (d, d.length + 3)
  | [], _, _ => by
    show comS (45 :: 45 :: 62 :: m) = _
    rw [comS, if_pos (by simp [List.isPrefixOf])]
    rfl
  | b :: d, hz, hn => by
    rw [noEnd, Bool.and_eq_true, Bool.and_eq_true] at hn
    obtain ⟨⟨h1, h2⟩, h3⟩ := hn
    have e1 := no_end1 b d m (by rw [Bool.not_eq_true'] at h1; exact h1)
    have e2 := no_end2 b d m (by rw [Bool.not_eq_true'] at h2; exact h2)
    have hl : 4 ≤ (b :: (d ++ 45 :: 45 :: 62 :: m)).length := by simp; omega
    have ih := comS_back m d (fun x hx => hz x (by simp [hx])) h3
    rw [List.cons_append, comS, e1, e2, if_neg Bool.false_ne_true, if_neg Bool.false_ne_true, if_neg (fun e => by rw [e] at hl; simp at hl), if_neg (fun e => by rw [e] at hl; simp at hl), if_neg (fun e => by rw [e] at hl; simp at hl), ih]
    have hb : nul1 b = [b] := by unfold nul1; exact if_neg (hz b (by simp))
    rw [hb]
    show ([b] ++ d, 1 + (d.length + 3)) = _
    rw [List.length_cons]
    congr 1
    omega
/-- Such data is read back. -/
theorem com_back (d m : List UInt8) (hz : ∀ x ∈ d, x ≠ 0) (hf : fitL d = true) : comL (d ++ 45 :: 45 :: 62 :: m) = (d, d.length + 3) := by
  unfold fitL at hf
  rw [Bool.and_eq_true, Bool.and_eq_true] at hf
  obtain ⟨⟨h1, h2⟩, h3⟩ := hf
  have a1 : [62].isPrefixOf (d ++ 45 :: 45 :: 62 :: m) = false := by
    match d, h1 with
    | [], _ => simp [List.isPrefixOf]
    | x :: d, h => simpa [List.isPrefixOf] using h
  have a2 : [45, 62].isPrefixOf (d ++ 45 :: 45 :: 62 :: m) = false := by
    match d, h2 with
    | [], _ => simp [List.isPrefixOf]
    | [x], _ => simp [List.isPrefixOf]
    | x :: y :: d, h => rw [Bool.not_eq_true'] at h; exact h
  unfold comL
  rw [a1, a2, if_neg Bool.false_ne_true, if_neg Bool.false_ne_true]
  exact comS_back m d hz h3
end Go.Proofs.YtofiaodpjpjedaaGreatDoor

namespace Go.Proofs.YtofiaodpjpjedaaGreatDoor
open Go.Lib
set_option maxRecDepth 100000

theorem cut_no {s p : List UInt8} (h : Lib.index s p = -1) : (Lib.cut s p).1 = s := by unfold Lib.cut; rw [h, if_neg (by decide)]
theorem cut_yes {s p : List UInt8} {n : Nat} (h : Lib.index s p = n) : (Lib.cut s p).1 = s.take n := by
  unfold Lib.cut
  rw [h, if_pos (by omega)]
  rfl
theorem utL_of {p t x : List UInt8} (h : (Lib.cut t p).1 = x) : utL p t = (x, x.length + if p.isPrefixOf (t.drop x.length) then p.length else 0) := by subst h; rfl
theorem utL_nil (p : List UInt8) (hp : p ≠ []) : utL p [] = ([], 0) := by
  have h : Lib.index [] p = -1 := by
    cases p with
    | nil => exact absurd rfl hp
    | cons a p => rfl
  rw [utL_of (cut_no h)]
  cases p with
  | nil => exact absurd rfl hp
  | cons a p => rfl
theorem utL_cons (p : List UInt8) (b : UInt8) (t : List UInt8) : utL p (b :: t) = if p.isPrefixOf (b :: t) then ([], p.length) else pre [b] 1 (utL p t) := by
  have hi : Lib.index (b :: t) p = if p.isPrefixOf (b :: t) then 0 else if Lib.index t p == -1 then -1 else Lib.index t p + 1 := rfl
  by_cases h : p.isPrefixOf (b :: t) = true
  · rw [if_pos h]
    rw [if_pos h] at hi
    rw [utL_of (cut_yes (n := 0) hi)]
    simp [h]
  · rw [if_neg h]
    rw [if_neg h] at hi
    by_cases h1 : Lib.index t p = -1
    · rw [h1, if_pos (by decide)] at hi
      rw [utL_of (cut_no hi), utL_of (cut_no h1)]
      refine Prod.ext rfl ?_
      show (t.length + 1) + (if p.isPrefixOf (t.drop t.length) then p.length else 0) = 1 + (t.length + (if p.isPrefixOf (t.drop t.length) then p.length else 0))
      omega
    · have hg := Lib.index_ge t p
      rw [if_neg (by rw [beq_iff_eq]; exact h1)] at hi
      obtain ⟨n, hn⟩ : ∃ n : Nat, Lib.index t p = n := ⟨(Lib.index t p).toNat, by omega⟩
      rw [hn] at hi
      rw [utL_of (cut_yes (n := n + 1) hi), utL_of (cut_yes hn), List.take_succ_cons]
      refine Prod.ext rfl ?_
      show ((t.take n).length + 1) + (if p.isPrefixOf (t.drop (t.take n).length) then p.length else 0) = 1 + ((t.take n).length + (if p.isPrefixOf (t.drop (t.take n).length) then p.length else 0))
      omega
theorem utL_le (p : List UInt8) : ∀ t : List UInt8, (utL p t).2 ≤ t.length + p.length
  | [] => by
    unfold utL
    have : (Lib.cut [] p).1 = [] := by unfold Lib.cut; split <;> simp
    rw [this]
    simp only [List.length_nil, Nat.zero_add]
    split <;> omega
  | b :: t => by
    have := utL_le p t
    rw [utL_cons]
    split
    · show p.length ≤ _; omega
    · show 1 + (utL p t).2 ≤ _
      rw [List.length_cons]; omega
/-- No mark so far. -/
theorem utL_run (p : List UInt8) : ∀ (k : Nat) (t : List UInt8), k ≤ t.length → (∀ j, j < k → p.isPrefixOf (t.drop j) = false) → utL p t = pre (t.take k) k (utL p (t.drop k))
  | 0, t, _, _ => by simp [pre]
  | k + 1, [], h, _ => by simp at h
  | k + 1, b :: t, h, hn => by
    have h0 : p.isPrefixOf (b :: t) = false := hn 0 (by omega)
    rw [utL_cons, h0, if_neg (by simp), utL_run p k t (by simp at h; omega) (fun j hj => by have := hn (j + 1) (by omega); simpa using this), pre_pre, List.take_succ_cons, List.drop_succ_cons, Nat.add_comm 1]
    rfl

/-! ### Comments -/
def endAt (t : List UInt8) : Bool := [45, 45, 62].isPrefixOf t || [45, 45, 33, 62].isPrefixOf t
/-- No end so far, and one here. -/
theorem comS_at : ∀ (k : Nat) (t : List UInt8), (∀ j, j < k → endAt (t.drop j) = false) → endAt (t.drop k) = true → comS t = pre (nulL (t.take k)) k (comS (t.drop k))
  | 0, t, _, _ => by simp [pre_nil, nulL_nil]
  | k + 1, [], _, h => by simp [endAt] at h
  | k + 1, b :: t, hn, h => by
    have h0 : endAt (b :: t) = false := hn 0 (by omega)
    unfold endAt at h0
    rw [Bool.or_eq_false_iff] at h0
    have ih := comS_at k t (fun j hj => by have := hn (j + 1) (by omega); simpa using this) (by simpa using h)
    have tl : b :: t ≠ [45, 45, 33] ∧ b :: t ≠ [45, 45] ∧ b :: t ≠ [45] := by
      refine ⟨?_, ?_, ?_⟩
      all_goals
        intro e
        injection e with e1 e2
        subst e1
        subst e2
        rcases k with _ | _ | _ | k <;> simp [endAt] at h
    rw [comS, h0.1, h0.2, if_neg (by simp), if_neg (by simp), if_neg tl.1, if_neg tl.2.1, if_neg tl.2.2, ih, pre_pre, List.take_succ_cons, List.drop_succ_cons, nulL_cons, Nat.add_comm 1]
/-- The end of the string, with what of an end may stand there. -/
def tailR (t : List UInt8) : List UInt8 × Nat :=
  if [45, 45, 33].isSuffixOf t then (nulL (t.take (t.length - 3)), t.length)
  else if [45, 45].isSuffixOf t then (nulL (t.take (t.length - 2)), t.length)
  else if [45].isSuffixOf t then (nulL (t.take (t.length - 1)), t.length)
  else (nulL t, t.length)
theorem suf_cons (x : List UInt8) (b : UInt8) (t : List UInt8) (h : b :: t ≠ x) : x.isSuffixOf (b :: t) = x.isSuffixOf t := by
  rw [Bool.eq_iff_iff, List.isSuffixOf_iff_suffix, List.isSuffixOf_iff_suffix, List.suffix_cons_iff]
  constructor
  · rintro (e | e)
    · exact absurd e.symm h
    · exact e
  · exact .inr
theorem suf_len {x t : List UInt8} (h : x.isSuffixOf t = true) : x.length ≤ t.length := (List.isSuffixOf_iff_suffix.1 h).length_le
theorem tailR_cons (b : UInt8) (t : List UInt8) (h3 : b :: t ≠ [45, 45, 33]) (h2 : b :: t ≠ [45, 45]) (h1 : b :: t ≠ [45]) : tailR (b :: t) = pre (nul1 b) 1 (tailR t) := by
  unfold tailR
  rw [suf_cons _ b t h3, suf_cons _ b t h2, suf_cons _ b t h1]
  have key : ∀ n, n ≤ t.length → ((b :: t).take ((b :: t).length - n)) = b :: t.take (t.length - n) := by
    intro n hn
    rw [List.length_cons, show t.length + 1 - n = t.length - n + 1 by omega, List.take_succ_cons]
  have p : ∀ l : List UInt8, pre (nul1 b) 1 (nulL l, t.length) = (nulL (b :: l), (b :: t).length) := by
    intro l
    rw [nulL_cons, List.length_cons]
    show (_, 1 + t.length) = _
    rw [Nat.add_comm]
  by_cases c3 : [45, 45, 33].isSuffixOf t = true
  · rw [if_pos c3, if_pos c3, p, key 3 (suf_len c3)]
  · rw [if_neg c3, if_neg c3]
    by_cases c2 : [45, 45].isSuffixOf t = true
    · rw [if_pos c2, if_pos c2, p, key 2 (suf_len c2)]
    · rw [if_neg c2, if_neg c2]
      by_cases c1 : [45].isSuffixOf t = true
      · rw [if_pos c1, if_pos c1, p, key 1 (suf_len c1)]
      · rw [if_neg c1, if_neg c1, p]
theorem comS_tail : ∀ t : List UInt8, (∀ j, j < t.length → endAt (t.drop j) = false) → comS t = tailR t
  | [], _ => by decide
  | b :: t, hn => by
    have h0 : endAt (b :: t) = false := hn 0 (by simp)
    unfold endAt at h0
    rw [Bool.or_eq_false_iff] at h0
    by_cases h3 : b :: t = [45, 45, 33]
    · rw [h3]; decide
    by_cases h2 : b :: t = [45, 45]
    · rw [h2]; decide
    by_cases h1 : b :: t = [45]
    · rw [h1]; decide
    have ih := comS_tail t (fun j hj => by have := hn (j + 1) (by simp; omega); simpa using this)
    rw [comS, h0.1, h0.2, if_neg (by simp), if_neg (by simp), if_neg h3, if_neg h2, if_neg h1, ih, tailR_cons b t h3 h2 h1]
theorem comS_3e {t : List UInt8} (h : [45, 45, 62].isPrefixOf t = true) : comS t = ([], 3) := by
  cases t with
  | nil => simp [List.isPrefixOf] at h
  | cons b t => rw [comS, if_pos h]
theorem comS_4e {t : List UInt8} (h3 : [45, 45, 62].isPrefixOf t = false) (h : [45, 45, 33, 62].isPrefixOf t = true) : comS t = ([], 4) := by
  cases t with
  | nil => simp [List.isPrefixOf] at h
  | cons b t => rw [comS, h3, if_neg (by simp), if_pos h]
end Go.Proofs.YtofiaodpjpjedaaGreatDoor

namespace Go.Proofs.YtofiaodpjpjedaaGreatDoor
open Go.Lib
set_option maxRecDepth 100000

theorem pre_short {p t m : List UInt8} (hl : p.length ≤ t.length) : p.isPrefixOf (t ++ m) = p.isPrefixOf t := by
  rw [Bool.eq_iff_iff, List.isPrefixOf_iff_prefix, List.isPrefixOf_iff_prefix]
  constructor
  · intro h
    exact List.prefix_of_prefix_length_le h (List.prefix_append t m) hl
  · intro h
    exact h.trans (List.prefix_append t m)
theorem utL_more (p m : List UInt8) (hp : p ≠ []) : ∀ t : List UInt8, (utL p t).2 < t.length → utL p (t ++ m) = utL p t ∧ p.length ≤ t.length
  | [], h => absurd h (Nat.not_lt_zero _)
  | b :: t, h => by
    rw [List.cons_append, utL_cons, utL_cons]
    rw [utL_cons] at h
    by_cases hb : p.isPrefixOf (b :: t) = true
    · have h1 : p.isPrefixOf (b :: (t ++ m)) = true := by
        rw [← List.cons_append]
        exact pref_app hb
      rw [if_pos hb, if_pos h1]
      exact ⟨rfl, (List.isPrefixOf_iff_prefix.1 hb).length_le⟩
    · rw [if_neg hb] at h
      have ih := utL_more p m hp t (by simp only [pre, List.length_cons] at h; omega)
      have hl : p.length ≤ (b :: t).length := by rw [List.length_cons]; omega
      have h1 : ¬ p.isPrefixOf (b :: (t ++ m)) = true := by
        rw [← List.cons_append, pre_short hl]
        exact hb
      rw [if_neg hb, if_neg h1, ih.1]
      exact ⟨rfl, hl⟩
theorem both_at {s more both : ByteArray} (hb : both = s ++ more) {a : Int} (ha : a ≤ s.size) : clip both a = clip s a ∧ tlS both a = tlS s a ++ more.data.toList ∧ ∀ j, j ≤ s.size → both.data.toList.drop j = s.data.toList.drop j ++ more.data.toList := by
  have hsz : both.size = s.size + more.size := by rw [hb, ByteArray.size_append]
  have hc : clip both a = clip s a := by unfold clip; rw [hsz]; omega
  have hl : both.data.toList = s.data.toList ++ more.data.toList := by rw [hb, ByteArray.data_append, Array.toList_append]
  have hd : ∀ j, j ≤ s.size → both.data.toList.drop j = s.data.toList.drop j ++ more.data.toList := by
    intro j hj
    rw [hl, List.drop_append_of_le_length (by rw [size_list]; exact hj)]
  exact ⟨hc, by unfold tlS; rw [hc]; exact hd _ (clip_le s a), hd⟩
theorem tl_len (s : ByteArray) (a : Int) : (tlS s a).length = s.size - clip s a := by unfold tlS; rw [List.length_drop, size_list]
theorem dT_tok {d e : Dt} (h : dT d = dT e) : tokD d = tokD e := by
  have h1 : d.name = e.name := list_bytes _ _ (congrArg DocT.name h)
  have h2 : d.hn = e.hn := congrArg DocT.hasName h
  have h3 : d.pub = e.pub := list_bytes _ _ (congrArg DocT.pub h)
  have h4 : d.hp = e.hp := congrArg DocT.hasPub h
  have h5 : d.sys = e.sys := list_bytes _ _ (congrArg DocT.sys h)
  have h6 : d.hs = e.hs := congrArg DocT.hasSys h
  have h7 : d.qk = e.qk := congrArg DocT.quirks h
  unfold tokD
  rw [h1, h2, h3, h4, h5, h6, h7]
theorem drop_inj {l : List UInt8} {n k : Nat} (hn : n ≤ l.length) (hk : k ≤ l.length) (h : l.drop n = l.drop k) : n = k := by
  have e := congrArg List.length h
  rw [List.length_drop, List.length_drop] at e
  omega
/-- A doctype that ends before the string does. -/
theorem doc_both {s more both : ByteArray} (hb : both = s ++ more) {a : Int} (ha : a ≤ s.size) {d e : Dt} {p q : Nat} (hp : p ≤ s.size) (hq : q ≤ both.size) (h1 : docL (tlS s a) = (dT d, s.data.toList.drop p)) (h2 : docL (tlS both a) = (dT e, both.data.toList.drop q)) (hlt : p < s.size) : tokD e = tokD d ∧ q = p := by
  obtain ⟨_, ht, hd⟩ := both_at hb ha
  have hne : s.data.toList.drop p ≠ [] := by rw [drop_byte s p hlt]; simp
  have h3 : docL (tlS s a ++ more.data.toList) = (dT d, s.data.toList.drop p ++ more.data.toList) := by
    have h := docL_more (tlS s a) more.data.toList (by rw [h1]; exact hne)
    rw [h, h1]
  rw [ht, h3] at h2
  injection h2 with e1 e2
  refine ⟨dT_tok e1.symm, ?_⟩
  have hsz : both.size = s.size + more.size := by rw [hb, ByteArray.size_append]
  rw [← hd p hp] at e2
  exact (drop_inj (by rw [size_list]; omega) (by rw [size_list]; exact hq) e2).symm
/-- A tag that is closed. -/
theorem tag_both {s more both : ByteArray} (hb : both = s ++ more) {a : Int} (ha : a ≤ s.size) {R : RefF} {acc : AttL} {sc : Bool} {p : Nat} (hp : p ≤ s.size) (h1 : atL R (tgRest (tlS s a)) = some (acc, sc, s.data.toList.drop p)) : atL R (tgRest (tlS both a)) = some (acc, sc, both.data.toList.drop p) ∧ tgName (tlS both a) = tgName (tlS s a) := by
  obtain ⟨_, ht, hd⟩ := both_at hb ha
  have hne : tgRest (tlS s a) ≠ [] := by
    intro h
    rw [h] at h1
    unfold atL at h1
    rw [atF_none_nil] at h1
    cases h1
  have hlt : runN enU (tlS s a) < (tlS s a).length := runN_lt hne
  have hr := runN_more enU more.data.toList (tlS s a) hlt
  have e1 : tgRest (tlS both a) = tgRest (tlS s a) ++ more.data.toList := by
    unfold tgRest
    rw [ht, hr, drop_more _ _ _ (Nat.le_of_lt hlt)]
  have e2 : tgName (tlS both a) = tgName (tlS s a) := by
    unfold tgName
    rw [ht, hr, take_more _ _ _ (Nat.le_of_lt hlt)]
  rw [e1, hd p hp]
  exact ⟨atL_more more.data.toList h1, e2⟩
end Go.Proofs.YtofiaodpjpjedaaGreatDoor

namespace Go.Proofs.YtofiaodpjpjedaaGreatDoor
open Go.RowKit Go.Shelf Go.Lib
set_option maxHeartbeats 4000000
set_option maxRecDepth 100000

/-- v is a list of these attributes. -/
def AttrRow (w : World) (v : Value) (acc : AttL) : Prop :=
  ∃ (A : Option Addr) (cap : Nat), v = .slice A acc.length cap ∧ ∀ i (h : i < acc.length), ∃ g, A = some ⟨g, 0, none⟩ ∧ g < w.heap.size ∧ w.cell? ⟨g, i * 3, none⟩ = some (.int .i64 0) ∧ w.cell? ⟨g, i * 3 + 1, none⟩ = some (.string (bl (acc[i]'h).1)) ∧ w.cell? ⟨g, i * 3 + 2, none⟩ = some (.string (bl (acc[i]'h).2))
theorem AttrRow.below {w w' : World} {v : Value} {acc : AttL} (h : AttrRow w v acc) (hb : Below w.heap.size w w') : AttrRow w' v acc := by
  obtain ⟨A, cap, rfl, hc⟩ := h
  refine ⟨A, cap, rfl, fun i hi => ?_⟩
  obtain ⟨g, hA, hg, c0, c1, c2⟩ := hc i hi
  exact ⟨g, hA, Nat.lt_of_lt_of_le hg hb.size, (hb.cell (p := ⟨g, i * 3, none⟩) hg).trans c0, (hb.cell (p := ⟨g, i * 3 + 1, none⟩) hg).trans c1, (hb.cell (p := ⟨g, i * 3 + 2, none⟩) hg).trans c2⟩
theorem attrRow_nil (w : World) : AttrRow w (.slice none 0 0) [] := ⟨none, 0, rfl, fun i h => absurd h (Nat.not_lt_zero i)⟩
theorem attrCells_at : ∀ (acc : AttL) (i : Nat) (h : i < acc.length), (attrCells acc)[i * 3]? = some (.int .i64 0) ∧ (attrCells acc)[i * 3 + 1]? = some (.string (bl (acc[i]'h).1)) ∧ (attrCells acc)[i * 3 + 2]? = some (.string (bl (acc[i]'h).2))
  | [], i, h => absurd h (Nat.not_lt_zero i)
  | a :: t, 0, _ => ⟨rfl, rfl, rfl⟩
  | a :: t, i + 1, h => by
    have ih := attrCells_at t i (by simpa using h)
    have e : attrCells (a :: t) = [.int .i64 0, .string (bl a.1), .string (bl a.2)] ++ attrCells t := rfl
    rw [e, show (i + 1) * 3 = i * 3 + 3 by omega]
    refine ⟨?_, ?_, ?_⟩
    · rw [List.getElem?_append_right (by simp)]
      simpa using ih.1
    · rw [List.getElem?_append_right (by simp)]
      simpa using ih.2.1
    · rw [List.getElem?_append_right (by simp)]
      simpa using ih.2.2
theorem addr_add (g k : Nat) : (⟨g, 0, none⟩ : Addr).add k = ⟨g, k, none⟩ := by
  by_cases h : k = 0
  · subst h; simp [Addr.add]
  · simp [Addr.add, h]
theorem attrRow_of {w : World} {B : Nat} {v : Value} {acc : AttL} (h : w.ownsRow B 62 3 v acc.length (attrCells acc)) : AttrRow w v acc := by
  have h2 := h.2
  rcases h2 with ⟨hv, h0⟩ | ⟨g, cap, cur, hv, _, hh, _⟩
  · have : acc = [] := List.length_eq_zero_iff.1 h0
    subst this
    rw [hv]
    exact attrRow_nil w
  · refine ⟨some ⟨g, 0, none⟩, cap, hv, fun i hi => ⟨g, rfl, ?_, ?_, ?_, ?_⟩⟩
    · exact (Array.getElem?_eq_some_iff.1 hh).1
    · have e := h.cells (by rw [hv]; rfl) _ _ (attrCells_at acc i hi).1
      rwa [addr_add] at e
    · have e := h.cells (by rw [hv]; rfl) _ _ (attrCells_at acc i hi).2.1
      rwa [addr_add] at e
    · have e := h.cells (by rw [hv]; rfl) _ _ (attrCells_at acc i hi).2.2
      rwa [addr_add] at e

theorem sameAttrs (v v' : Value) (acc : AttL) (hz : acc.length ≤ 1000000) (w : World) (h : AttrRow w v acc) (h' : AttrRow w v' acc) :
    Calls Tryz.prog 50 #[v, v'] w fun e w' => e = .returned (.bool true) ∧ Below w.heap.size w w' := by
  obtain ⟨A, cap, rfl, hA⟩ := h
  obtain ⟨A', cap', rfl, hA'⟩ := h'
  have HA := Lib.hid hA
  have HA' := Lib.hid hA'
  clear hA hA'
  obtain ⟨n, hn⟩ : ∃ n, n = acc.length := ⟨_, rfl⟩
  rw [← hn] at hz ⊢
  have HN := Lib.hid hn
  have hzI : (n : Int) ≤ 1000000 := by omega
  clear hn
  go_enter Tryz.func50, Tryz.ntmps50
  go_wp2_with fail
  go_loopw [5] (fun i wr => ∃ k : Nat, k ≤ n ∧ i = .int .i64 k ∧ Below w.heap.size w wr) (fun i _ => n - (intOf i).toNat)
  case atStart => exact ⟨0, Nat.zero_le _, rfl, Below.refl _ _⟩
  case round =>
    obtain ⟨k, hk, rfl, hB⟩ := hrel
    by_cases hlt : k < n
    · have hI : (k : Int) < (n : Int) := by omega
      obtain ⟨g, rfl, hg, c0, c1, c2⟩ := HA.out k (by rw [← HN.out]; exact hlt)
      obtain ⟨g', rfl, hg', d0, d1, d2⟩ := HA'.out k (by rw [← HN.out]; exact hlt)
      generalize bl (acc[k]'(by rw [← HN.out]; exact hlt)).1 = x at c1 d1
      generalize bl (acc[k]'(by rw [← HN.out]; exact hlt)).2 = y at c2 d2
      replace c0 := (hB.cell (p := ⟨g, k * 3, none⟩) hg).trans c0
      replace c1 := (hB.cell (p := ⟨g, k * 3 + 1, none⟩) hg).trans c1
      replace c2 := (hB.cell (p := ⟨g, k * 3 + 2, none⟩) hg).trans c2
      replace d0 := (hB.cell (p := ⟨g', k * 3, none⟩) hg').trans d0
      replace d1 := (hB.cell (p := ⟨g', k * 3 + 1, none⟩) hg').trans d1
      replace d2 := (hB.cell (p := ⟨g', k * 3 + 2, none⟩) hg').trans d2
      have tx : (x.toList == x.toList) = true := beq_self_eq_true _
      have ty : (y.toList == y.toList) = true := beq_self_eq_true _
      clear hg hg'
      go_wp2_with fail
      go_quiet (fail)
      go_wp2_with fail
      refine ⟨⟨k + 1, by omega, by go_num, _root_.Go.below_drewN hB _⟩, ?_⟩
      simp [intOf]
      omega
    · have hI2 : ¬ (k : Int) < (n : Int) := by omega
      go_wp2_with fail
      go_ret
      exact ⟨rfl, hB⟩

/-- A token of these fields. -/
def tokV (k : Int) (n : ByteArray) (hn : Bool) (p : ByteArray) (hp : Bool) (y : ByteArray) (hy q : Bool) (v : Value) (sc : Bool) (d : ByteArray) (r : Int) : Value :=
  .agg #[.int .i64 k, .string n, .bool hn, .string p, .bool hp, .string y, .bool hy, .bool q, v, .bool sc, .string d, .int .i32 r]
theorem sameToken (k : Int) (n : ByteArray) (hn : Bool) (p : ByteArray) (hp : Bool) (y : ByteArray) (hy q : Bool) (v v' : Value) (sc : Bool) (d : ByteArray) (r : Int) (acc : AttL) (hz : acc.length ≤ 1000000) (w : World) (h : AttrRow w v acc) (h' : AttrRow w v' acc) :
    Calls Tryz.prog 39 #[tokV k n hn p hp y hy q v sc d r, tokV k n hn p hp y hy q v' sc d r] w fun e w' => e = .returned (.bool true) ∧ Below w.heap.size w w' := by
  have HS := Lib.hid (fun W h h' => sameAttrs v v' acc hz W h h')
  have HA := Lib.hid h
  have HA' := Lib.hid h'
  clear h h'
  unfold tokV
  go_enter Tryz.func39, Tryz.ntmps39
  go_wp2_with fail
  generalize hW : World.alloc _ _ = W
  have hb : Below w.heap.size w W := by rw [← hW]; exact below_alloc (below_alloc (Below.refl _ _) _) _
  clear hW
  refine (HS.out W (HA.out.below hb) (HA'.out.below hb)).mono ?_
  rintro e w2 ⟨rfl, hs⟩
  go_wp2_with fail
  go_ret
  exact ⟨rfl, below_next hb hs⟩
end Go.Proofs.YtofiaodpjpjedaaGreatDoor

namespace Go.Proofs.YtofiaodpjpjedaaGreatDoor
open Go.RowKit Go.Shelf Go.Lib
set_option maxHeartbeats 4000000
set_option maxRecDepth 100000

theorem wpList_load_wanted {P : Program} {ops : Array Oper} {rest : List Oper} {o : Oper} {a : Act} {w : World} {Q : Exit → Act → World → Prop} (hw : Region.wanted o (yielded ops a.tmps) = true) (ty : TypeId) (x : Operand) (ho : o.op = .load ty x)
    (g : Nat) (hx : a.eval x = .pointer (some ⟨g, 0, none⟩)) (t : TypeId) (cs : Array Value) (fr : Nat × Nat) (d : TypeDesc) (hg : w.heap[g]? = some (.cells cs t fr))
    (hu : P.underlying ty = some d) (hd : (match d with | .struct _ | .array _ _ => true | _ => false) = true) (hi : (P.info? ty).map (·.size) = some cs.size)
    (h : wpList P ops Q rest (a.put o.dst (.agg cs)) w) : wpList P ops Q (o :: rest) a w :=
  wpList_step fun K hK => by rw [if_pos hw]; exact wp_load_row ty x ho g hx t cs fr d hg hu hd hi (hK _ _ h)
theorem tok_new (w : World) (fs : Array Value) (W : World) (hW : W = w.alloc (.cells fs 40)) : W.heap[w.heap.size]? = some (.cells fs 40 (0, 0)) ∧ Below w.heap.size w W ∧ w.heap.size < W.heap.size := by
  subst hW
  refine ⟨?_, below_alloc (Below.refl _ _) _, ?_⟩
  · show (w.heap.push _)[w.heap.size]? = _; exact Array.getElem?_push_size
  · show _ < (w.heap.push _).size
    rw [Array.size_push]
    omega
theorem val_both {s more both : ByteArray} (hb : both = s ++ more) {a : Int} (ha : a ≤ s.size) {R : RefF} {V V' : ByteArray} {cl' : Bool} {N N' : Nat} (hN : N ≤ s.size) (hN' : N' ≤ both.size) (h1 : vaL R (tlS s a) = some (V.data.toList, s.data.toList.drop N))
    (h2 : (cl' = true ∧ vaL R (tlS both a) = some (V'.data.toList, both.data.toList.drop N')) ∨ (cl' = false ∧ V' = ⟨#[]⟩ ∧ N' = both.size ∧ vaL R (tlS both a) = none)) : V' = V ∧ cl' = true ∧ N' = N := by
  have hm := vaL_more more.data.toList h1
  obtain ⟨_, ht, hd⟩ := both_at hb ha
  have hm2 : vaL R (tlS both a) = some (V.data.toList, both.data.toList.drop N) := by rw [ht, hd N hN]; exact hm
  rcases h2 with ⟨rfl, hv2⟩ | ⟨_, _, _, hv2⟩
  · rw [hm2] at hv2
    have e := Option.some.inj hv2
    injection e with e1 e2
    have hsz : both.size = s.size + more.size := by rw [hb, ByteArray.size_append]
    exact ⟨(list_bytes _ _ e1).symm, rfl, (drop_inj (by rw [size_list]; omega) (by rw [size_list]; exact hN') e2).symm⟩
  · rw [hm2] at hv2; cases hv2
theorem tag_eq {s more both : ByteArray} (hb : both = s ++ more) {acc acc' : AttL} {sc sc' : Bool} {N N' : Nat} (hN : N ≤ s.size) (hN' : N' ≤ both.size) {x : Option (AttL × Bool × List UInt8)} (h1 : x = some (acc, sc, both.data.toList.drop N)) (h2 : x = some (acc', sc', both.data.toList.drop N')) : acc = acc' ∧ sc = sc' ∧ N = N' := by
  have e := Option.some.inj (h1.symm.trans h2)
  injection e with e1 e2
  injection e2 with e2 e3
  have hsz : both.size = s.size + more.size := by rw [hb, ByteArray.size_append]
  exact ⟨e1, e2, drop_inj (by rw [size_list]; omega) (by rw [size_list]; exact hN') e3⟩
theorem tag_form {tk' : Value} {cl' en : Bool} {w' : World} {B N' M : Nat} {nm : ByteArray} {x : Option (AttL × Bool × List UInt8)} {y : List UInt8}
    (h : (cl' = false ∧ tk' = tokA 0 ⟨#[]⟩ (.slice none 0 0) false ∧ N' = M ∧ x = none) ∨
       (cl' = true ∧ ∃ (acc : AttL) (sc : Bool) (v : Value), x = some (acc, sc, y) ∧ w'.ownsRow B 62 3 v acc.length (attrCells acc) ∧ acc.length ≤ M ∧
         tk' = if en then tokA 3 nm (.slice none 0 0) false else tokA 2 nm v sc)) : ∃ k n A pn pc sc, tk' = tokA k n (.slice A pn pc) sc := by
  rcases h with ⟨_, h, _, _⟩ | ⟨_, acc, sc, v, _, hown, _, h⟩
  · exact ⟨_, _, _, _, _, _, h⟩
  · obtain ⟨A, cap, hv, _⟩ := attrRow_of hown
    subst hv
    cases en
    · exact ⟨_, _, _, _, _, _, h⟩
    · exact ⟨_, _, _, _, _, _, h⟩

theorem lawClosed (s more : ByteArray) (a : Int) (flag : Bool) (m : Int) (w : World) (hm : w.cell? ⟨1, 0, none⟩ = some (.int .i64 m)) (hc : CtlW w) :
    Calls Tryz.prog 8 #[.string s, .string more, .int .i64 a, .bool flag] w fun e w' => e = .returned (.bool true) ∧ Below w.heap.size w w' := by
  have HM := Lib.hid hm
  have HC := Lib.hid hc
  have HS1 := Lib.hid (small02 s)
  have HS2 := Lib.hid (small02 more)
  have HK := Lib.hid (known02 m w hc hm)
  clear hm hc
  by_cases h1 : s.size ≤ 4096
  · rw [decide_eq_true h1] at HS1
    by_cases h2 : more.size ≤ 4096
    · rw [decide_eq_true h2] at HS2
      obtain ⟨both, hboth⟩ : ∃ both, s ++ more = both := ⟨_, rfl⟩
      have hbs : both.size = s.size + more.size := by rw [← hboth, ByteArray.size_append]
      have g1 : s.size ≤ 4096 := h1
      have g2 : more.size ≤ 4096 := h2
      have g3 : both.size ≤ 8192 := by omega
      have c1 := fun W h => commentC s a m (by omega) W h
      have c2 := fun W h => bogusC s a m (by omega) W h
      have c3 := fun W h => cdata s a m (by omega) W h
      have b1 := fun W h => commentC both a m (by omega) W h
      have b2 := fun W h => bogusC both a m (by omega) W h
      have b3 := fun W h => cdata both a m (by omega) W h
      obtain ⟨X1, hX1⟩ : ∃ V, V = bl (comL (tlS s a)).1 := ⟨_, rfl⟩
      obtain ⟨X2, hX2⟩ : ∃ V, V = bl (nulL (utL [62] (tlS s a)).1) := ⟨_, rfl⟩
      obtain ⟨X3, hX3⟩ : ∃ V, V = bl (utL [93, 93, 62] (tlS s a)).1 := ⟨_, rfl⟩
      obtain ⟨n1, hn1⟩ : ∃ n : Int, n = ((clip s a + (comL (tlS s a)).2 : Nat) : Int) := ⟨_, rfl⟩
      obtain ⟨n2, hn2⟩ : ∃ n : Int, n = ((clip s a + (utL [62] (tlS s a)).2 : Nat) : Int) := ⟨_, rfl⟩
      obtain ⟨n3, hn3⟩ : ∃ n : Int, n = ((clip s a + (utL [93, 93, 62] (tlS s a)).2 : Nat) : Int) := ⟨_, rfl⟩
      obtain ⟨Y1, hY1⟩ : ∃ V, V = bl (comL (tlS both a)).1 := ⟨_, rfl⟩
      obtain ⟨Y2, hY2⟩ : ∃ V, V = bl (nulL (utL [62] (tlS both a)).1) := ⟨_, rfl⟩
      obtain ⟨Y3, hY3⟩ : ∃ V, V = bl (utL [93, 93, 62] (tlS both a)).1 := ⟨_, rfl⟩
      obtain ⟨m1, hm1⟩ : ∃ n : Int, n = ((clip both a + (comL (tlS both a)).2 : Nat) : Int) := ⟨_, rfl⟩
      obtain ⟨m2, hm2⟩ : ∃ n : Int, n = ((clip both a + (utL [62] (tlS both a)).2 : Nat) : Int) := ⟨_, rfl⟩
      obtain ⟨m3, hm3⟩ : ∃ n : Int, n = ((clip both a + (utL [93, 93, 62] (tlS both a)).2 : Nat) : Int) := ⟨_, rfl⟩
      have hall : a ≤ (s.size : Int) → (n1 < (s.size : Int) → Y1 = X1 ∧ m1 = n1) ∧ (n2 < (s.size : Int) → Y2 = X2 ∧ m2 = n2) ∧ (n3 < (s.size : Int) → Y3 = X3 ∧ m3 = n3) := by
        intro ha
        obtain ⟨hcl, ht, _⟩ := both_at hboth.symm ha
        have hk := clip_le s a
        have hl := tl_len s a
        refine ⟨fun h => ?_, fun h => ?_, fun h => ?_⟩
        · have e := comL_more (tlS s a) more.data.toList (by omega)
          rw [hY1, hm1, hX1, hn1, ht, e, hcl]
          exact ⟨rfl, rfl⟩
        · have e := (utL_more [62] more.data.toList (by simp) (tlS s a) (by omega)).1
          rw [hY2, hm2, hX2, hn2, ht, e, hcl]
          exact ⟨rfl, rfl⟩
        · have e := (utL_more [93, 93, 62] more.data.toList (by simp) (tlS s a) (by omega)).1
          rw [hY3, hm3, hX3, hn3, ht, e, hcl]
          exact ⟨rfl, rfl⟩
      simp only [← hX1, ← hn1] at c1
      simp only [← hX2, ← hn2] at c2
      simp only [← hX3, ← hn3] at c3
      simp only [← hY1, ← hm1] at b1
      simp only [← hY2, ← hm2] at b2
      simp only [← hY3, ← hm3] at b3
      have C1 := Lib.hid c1
      have C2 := Lib.hid c2
      have C3 := Lib.hid c3
      have B1 := Lib.hid b1
      have B2 := Lib.hid b2
      have B3 := Lib.hid b3
      have HALL := Lib.hid hall
      have D1 := Lib.hid (fun W h => doctypeC s a m (by omega) W h)
      have D2 := Lib.hid (fun W h => doctypeC both a m (by omega) W h)
      have T1 := Lib.hid (fun W hc hm => tagC lgL (Lib.hid lgOk) s a flag m (by omega) W hc hm)
      have T2 := Lib.hid (fun W hc hm => tagC lgL (Lib.hid lgOk) both a flag m (by omega) W hc hm)
      have V1 := Lib.hid (fun W hc hm => valueC lgL (Lib.hid lgOk) s a m (by omega) W hc hm)
      have V2 := Lib.hid (fun W hc hm => valueC lgL (Lib.hid lgOk) both a m (by omega) W hc hm)
      have G1 := Lib.hid g1
      have G3 := Lib.hid g3
      have HBO := Lib.hid hboth.symm
      clear c1 c2 c3 b1 b2 b3 hX1 hX2 hX3 hY1 hY2 hY3 hn1 hn2 hn3 hm1 hm2 hm3 hall h1 h2 hbs g3
      go_enter Tryz.func8, Tryz.ntmps8
      go_wp2_with fail
      refine (HS1.out w).mono ?_
      rintro e w1 ⟨rfl, rfl⟩
      go_wp2_with fail
      refine (HS2.out w1).mono ?_
      rintro e w2 ⟨rfl, rfl⟩
      go_wp2_with fail
      refine (C1.out w2 HM.out).mono ?_
      rintro e w3 ⟨rfl, hb3⟩
      go_wp2_with fail
      refine (kof _ _ w3).mono ?_
      rintro e w4 ⟨rfl, hs⟩
      have hb4 := below_next hb3 hs
      clear hs
      go_wp2_with fail
      refine (C2.out w4 (carry HM.out hb4)).mono ?_
      rintro e w5 ⟨rfl, hs⟩
      have hb5 := below_next hb4 hs
      clear hs
      go_wp2_with fail
      refine (kof _ _ w5).mono ?_
      rintro e w6 ⟨rfl, hs⟩
      have hb6 := below_next hb5 hs
      clear hs
      go_wp2_with fail
      refine (C3.out w6 (carry HM.out hb6)).mono ?_
      rintro e w7 ⟨rfl, hs⟩
      have hb7 := below_next hb6 hs
      clear hs
      go_wp2_with fail
      refine (kof _ _ w7).mono ?_
      rintro e w8 ⟨rfl, hs⟩
      have hb8 := below_next hb7 hs
      clear hs
      go_wp2_with fail
      generalize hwl : w8.alloc _ = wl
      have tl : wl.heap[w8.heap.size]? = some (.cells #[.string X1, .int .i64 n1, .string X2, .int .i64 n2, .string X3, .int .i64 n3] 25 (0, 0)) := by
        rw [← hwl]
        show (w8.heap.push _)[w8.heap.size]? = _; exact Array.getElem?_push_size
      have hbl : Below w2.heap.size w2 wl := by rw [← hwl]; exact below_alloc hb8 _
      have hgl : w8.heap.size < wl.heap.size := by rw [← hwl]; show _ < (w8.heap.push _).size; rw [Array.size_push]; omega
      have TL := Lib.hid tl
      clear hwl tl hb3 hb4 hb5 hb6 hb7 hb8
      generalize w8.heap.size = gl at TL hgl ⊢
      have HBL := Lib.hid hbl
      have HMl := Lib.hid (carry HM.out hbl)
      have HCl := Lib.hid (HC.out.below hbl)
      clear hbl
      refine (B1.out wl HMl.out).mono ?_
      rintro e w9 ⟨rfl, hb9⟩
      go_wp2_with fail
      refine (kof _ _ w9).mono ?_
      rintro e w10 ⟨rfl, hs⟩
      have hb10 := below_next hb9 hs
      clear hs
      go_wp2_with fail
      refine (B2.out w10 (carry HMl.out hb10)).mono ?_
      rintro e w11 ⟨rfl, hs⟩
      have hb11 := below_next hb10 hs
      clear hs
      go_wp2_with fail
      refine (kof _ _ w11).mono ?_
      rintro e w12 ⟨rfl, hs⟩
      have hb12 := below_next hb11 hs
      clear hs
      go_wp2_with fail
      refine (B3.out w12 (carry HMl.out hb12)).mono ?_
      rintro e w13 ⟨rfl, hs⟩
      have hb13 := below_next hb12 hs
      clear hs
      go_wp2_with fail
      refine (kof _ _ w13).mono ?_
      rintro e w14 ⟨rfl, hs⟩
      have hb14 := below_next hb13 hs
      clear hs
      by_cases ha : a ≤ (s.size : Int)
      · obtain ⟨q1, q2, q3⟩ := HALL.out ha
        have HQ1 := Lib.hid q1
        have HQ2 := Lib.hid q2
        have HQ3 := Lib.hid q3
        clear q1 q2 q3
        go_wp2_with fail
        generalize hwm : w14.alloc _ = wm
        have tm : wm.heap[w14.heap.size]? = some (.cells #[.string Y1, .int .i64 m1, .string Y2, .int .i64 m2, .string Y3, .int .i64 m3] 25 (0, 0)) := by
          rw [← hwm]
          show (w14.heap.push _)[w14.heap.size]? = _; exact Array.getElem?_push_size
        have hbm : Below wl.heap.size wl wm := by rw [← hwm]; exact below_alloc hb14 _
        have hgm : w14.heap.size < wm.heap.size := by rw [← hwm]; show _ < (w14.heap.push _).size; rw [Array.size_push]; omega
        have tl2 : wm.heap[gl]? = some (.cells #[.string X1, .int .i64 n1, .string X2, .int .i64 n2, .string X3, .int .i64 n3] 25 (0, 0)) := (hbm.block gl hgl).trans TL.out
        have hgl2 : gl < wm.heap.size := Nat.lt_of_lt_of_le hgl hbm.size
        have HBM := Lib.hid (below_next HBL.out hbm)
        have HMm := Lib.hid (carry HMl.out hbm)
        have HCm := Lib.hid (HCl.out.below hbm)
        generalize w14.heap.size = gm at tm hgm ⊢
        clear hwm hb9 hb10 hb11 hb12 hb13 hb14 hbm hgl TL
        obtain ⟨Xf, hXf⟩ : ∃ Xf : Nat → ByteArray, Xf = fun k => [X1, X2, X3].getD k X1 := ⟨_, rfl⟩
        obtain ⟨nf, hnf⟩ : ∃ nf : Nat → Int, nf = fun k => [n1, n2, n3].getD k 0 := ⟨_, rfl⟩
        obtain ⟨Yf, hYf⟩ : ∃ Yf : Nat → ByteArray, Yf = fun k => [Y1, Y2, Y3].getD k Y1 := ⟨_, rfl⟩
        obtain ⟨mf, hmf⟩ : ∃ mf : Nat → Int, mf = fun k => [m1, m2, m3].getD k 0 := ⟨_, rfl⟩
        have HCE : Hid (∀ k, k < 3 → (wm.cell? ⟨gl, k * 2, none⟩ = some (.string (Xf k)) ∧ wm.cell? ⟨gl, k * 2 + 1, none⟩ = some (.int .i64 (nf k))) ∧ (wm.cell? ⟨gm, k * 2, none⟩ = some (.string (Yf k)) ∧ wm.cell? ⟨gm, k * 2 + 1, none⟩ = some (.int .i64 (mf k))) ∧ (nf k < (s.size : Int) → Yf k = Xf k ∧ mf k = nf k)) := Lib.hid (by
          intro k hk
          rw [hXf, hYf, hnf, hmf]
          match k, hk with
          | 0, _ => exact ⟨⟨heap_cell tl2 0, heap_cell tl2 1⟩, ⟨heap_cell tm 0, heap_cell tm 1⟩, HQ1.out⟩
          | 1, _ => exact ⟨⟨heap_cell tl2 2, heap_cell tl2 3⟩, ⟨heap_cell tm 2, heap_cell tm 3⟩, HQ2.out⟩
          | 2, _ => exact ⟨⟨heap_cell tl2 4, heap_cell tl2 5⟩, ⟨heap_cell tm 4, heap_cell tm 5⟩, HQ3.out⟩)
        have HGL := Lib.hid hgl2
        have HGM := Lib.hid hgm
        clear tl2 tm hXf hYf hnf hmf hgl2 hgm
        go_loopw [12] (fun i wr => ∃ k : Nat, k ≤ 3 ∧ i = .int .i64 k ∧ Below wm.heap.size wm wr) (fun i _ => 3 - (intOf i).toNat)
        case atStart => exact ⟨0, by omega, rfl, Below.refl _ _⟩
        case round =>
          obtain ⟨k, hk, rfl, hB⟩ := hrel
          by_cases hlt : k < 3
          · have hI : (k : Int) < 3 := by omega
            obtain ⟨⟨c0, c1⟩, ⟨d0, d1⟩, hq⟩ := HCE.out k hlt
            generalize Xf k = X at c0 hq
            generalize nf k = nn at c1 hq
            generalize Yf k = Y at d0 hq
            generalize mf k = mm at d1 hq
            replace c0 := (hB.cell (p := ⟨gl, k * 2, none⟩) HGL.out).trans c0
            replace c1 := (hB.cell (p := ⟨gl, k * 2 + 1, none⟩) HGL.out).trans c1
            replace d0 := (hB.cell (p := ⟨gm, k * 2, none⟩) HGM.out).trans d0
            replace d1 := (hB.cell (p := ⟨gm, k * 2 + 1, none⟩) HGM.out).trans d1
            by_cases hn : nn < (s.size : Int)
            · obtain ⟨rfl, rfl⟩ := hq hn
              have dn : decide (mm < (s.size : Int)) = true := decide_eq_true hn
              have tx : (Y.toList == Y.toList) = true := beq_self_eq_true _
              have tn : (mm == mm) = true := beq_self_eq_true _
              clear hq hn
              go_wp2_with fail
              go_quiet (fail)
              go_wp2_with fail
              go_roundw
              case rel => exact ⟨k + 1, by omega, by go_num, _root_.Go.below_drewN hB _⟩
              case measure => simp [intOf]; omega
            · have dn : decide (nn < (s.size : Int)) = false := decide_eq_false hn
              clear hq hn
              go_wp2_with fail
              go_quiet (fail)
              go_wp2_with fail
              go_roundw
              case rel => exact ⟨k + 1, by omega, by go_num, _root_.Go.below_drewN hB _⟩
              case measure => simp [intOf]; omega
          · have hI2 : ¬ (k : Int) < 3 := by omega
            have HBW := Lib.hid (below_next HBM.out hB)
            have HMw := Lib.hid (carry HMm.out hB)
            have HCw := Lib.hid (HCm.out.below hB)
            clear hB
            have HA := Lib.hid ha
            have hpI0 : (s.size : Int) ≤ 4096 := by have := G1.out; omega
            go_wp2_with fail
            refine (D1.out wr HMw.out).mono ?_
            rintro e w20 ⟨d, p, rfl, hb20, _, hp, hdoc⟩
            unfold tokD
            go_wp2_with fail
            obtain ⟨wa, hW⟩ : ∃ x, x = w20.alloc (.cells #[.int .i64 1, .string d.name, .bool d.hn, .string d.pub, .bool d.hp, .string d.sys, .bool d.hs, .bool d.qk, .slice none 0 0, .bool false, .string ⟨#[]⟩, .int .i32 0] 40) := ⟨_, rfl⟩
            rw [← hW]
            obtain ⟨twa, hnwa, hgwa⟩ := tok_new w20 #[.int .i64 1, .string d.name, .bool d.hn, .string d.pub, .bool d.hp, .string d.sys, .bool d.hs, .bool d.qk, .slice none 0 0, .bool false, .string ⟨#[]⟩, .int .i32 0] wa hW
            clear hW
            obtain ⟨ga, hga⟩ : ∃ x, x = w20.heap.size := ⟨_, rfl⟩
            rw [← hga] at twa hgwa ⊢
            have Hwa := Lib.hid twa
            have HNwa := Lib.hid hnwa
            clear twa hnwa hga
            have hba := below_next hb20 HNwa.out
            refine (D2.out wa (carry HMw.out hba)).mono ?_
            rintro e w21 ⟨d', q, rfl, hs, _, hq, hdoc'⟩
            have HB21 := Lib.hid (below_next hba hs)
            have HDB := Lib.hid (fun h => doc_both HBO.out HA.out hp hq hdoc hdoc' h)
            have HTA := Lib.hid ((hs.block ga hgwa).trans Hwa.out)
            have hga : ga < w21.heap.size := Nat.lt_of_lt_of_le hgwa hs.size
            clear hs hba hb20 hq hdoc hdoc' ha Hwa hgwa
            by_cases hpl : p < s.size
            · obtain ⟨e1, rfl⟩ := HDB.out hpl
              rw [e1]
              unfold tokD
              have hpI : (q : Int) < (s.size : Int) := by omega
              clear e1 hp hpl
              have HL2 := Lib.hid (tok_new w21 #[.int .i64 1, .string d.name, .bool d.hn, .string d.pub, .bool d.hp, .string d.sys, .bool d.hs, .bool d.qk, .slice none 0 0, .bool false, .string ⟨#[]⟩, .int .i32 0] _ rfl).1
              have HL1 := Lib.hid (((tok_new w21 #[.int .i64 1, .string d.name, .bool d.hn, .string d.pub, .bool d.hp, .string d.sys, .bool d.hs, .bool d.qk, .slice none 0 0, .bool false, .string ⟨#[]⟩, .int .i32 0] _ rfl).2.1.block ga hga).trans HTA.out)
              have HLN := Lib.hid (tok_new w21 #[.int .i64 1, .string d.name, .bool d.hn, .string d.pub, .bool d.hp, .string d.sys, .bool d.hs, .bool d.qk, .slice none 0 0, .bool false, .string ⟨#[]⟩, .int .i32 0] _ rfl).2.1
              go_simp
              repeat (first
                | refine wpList_load_wanted (by rfl) 40 _ rfl ga rfl 40 #[.int .i64 1, .string d.name, .bool d.hn, .string d.pub, .bool d.hp, .string d.sys, .bool d.hs, .bool d.qk, .slice none 0 0, .bool false, .string ⟨#[]⟩, .int .i32 0] (0, 0) _ HL1.out Tryz.underlying40 rfl (by kernel_rfl) ?_
                | refine wpList_load_wanted (by rfl) 40 _ rfl w21.heap.size rfl 40 #[.int .i64 1, .string d.name, .bool d.hn, .string d.pub, .bool d.hp, .string d.sys, .bool d.hs, .bool d.qk, .slice none 0 0, .bool false, .string ⟨#[]⟩, .int .i32 0] (0, 0) _ HL2.out Tryz.underlying40 rfl (by kernel_rfl) ?_
                | go_values
                | go_skip
                | go_guarded
                | go_step
                | go_upon
                | go_back)
              obtain ⟨wb, hW⟩ : ∃ x, x = w21.alloc (.cells #[.int .i64 1, .string d.name, .bool d.hn, .string d.pub, .bool d.hp, .string d.sys, .bool d.hs, .bool d.qk, .slice none 0 0, .bool false, .string ⟨#[]⟩, .int .i32 0] 40) := ⟨_, rfl⟩
              rw [← hW]
              rw [← hW] at HLN
              clear hW HL1 HL2
              have hbb := below_next HB21.out HLN.out
              refine (sameToken 1 d.name d.hn d.pub d.hp d.sys d.hs d.qk (.slice none 0 0) (.slice none 0 0) false ⟨#[]⟩ 0 [] (by decide) wb (attrRow_nil _) (attrRow_nil _)).mono ?_
              rintro e w22 ⟨rfl, hs⟩
              have hb22 := below_next hbb hs
              clear hs hbb
              have HCt := Lib.hid (HCw.out.below hb22)
              have HMt := Lib.hid (carry HMw.out hb22)
              go_wp2_with fail
              refine (T1.out w22 HCt.out HMt.out).mono ?_
              rintro e w24 ⟨tk, cl, N, rfl, hb24, _, hN, hor⟩
              have HOR := Lib.hid hor
              clear hor
              rcases HOR.out with ⟨rfl, rfl, _, _⟩ | ⟨rfl, acc, sc, v, hat, hown, hacc, rfl⟩
              · unfold tokA
                go_wp2_with fail
                obtain ⟨wc, hW⟩ : ∃ x, x = w24.alloc (.cells #[.int .i64 0, .string ⟨#[]⟩, .bool false, .string ⟨#[]⟩, .bool false, .string ⟨#[]⟩, .bool false, .bool false, .slice none 0 0, .bool false, .string ⟨#[]⟩, .int .i32 0] 40) := ⟨_, rfl⟩
                rw [← hW]
                obtain ⟨twc, hnwc, hgwc⟩ := tok_new w24 #[.int .i64 0, .string ⟨#[]⟩, .bool false, .string ⟨#[]⟩, .bool false, .string ⟨#[]⟩, .bool false, .bool false, .slice none 0 0, .bool false, .string ⟨#[]⟩, .int .i32 0] wc hW
                clear hW
                obtain ⟨gc, hgc⟩ : ∃ x, x = w24.heap.size := ⟨_, rfl⟩
                rw [← hgc] at twc hgwc ⊢
                have Hwc := Lib.hid twc
                have HNwc := Lib.hid hnwc
                clear twc hnwc hgc
                have hbc := below_next hb24 HNwc.out
                refine (T2.out wc (HCt.out.below hbc) (carry HMt.out hbc)).mono ?_
                rintro e w25 ⟨tk', cl', N', rfl, hs25, _, _, hor'⟩
                have HBc := Lib.hid (below_next hb22 (below_next hbc hs25))
                obtain ⟨k', n', A', pn', pc', sc', rfl⟩ := tag_form hor'
                clear hor' hs25 hbc hb24 hN Hwc hgwc
                unfold tokA
                go_wp2_with fail
                obtain ⟨wd, hW⟩ : ∃ x, x = w25.alloc (.cells #[.int .i64 k', .string n', .bool false, .string ⟨#[]⟩, .bool false, .string ⟨#[]⟩, .bool false, .bool false, .slice A' pn' pc', .bool sc', .string ⟨#[]⟩, .int .i32 0] 40) := ⟨_, rfl⟩
                rw [← hW]
                obtain ⟨twd, hnwd, hgwd⟩ := tok_new w25 #[.int .i64 k', .string n', .bool false, .string ⟨#[]⟩, .bool false, .string ⟨#[]⟩, .bool false, .bool false, .slice A' pn' pc', .bool sc', .string ⟨#[]⟩, .int .i32 0] wd hW
                clear hW
                obtain ⟨gd, hgd⟩ : ∃ x, x = w25.heap.size := ⟨_, rfl⟩
                rw [← hgd] at twd hgwd ⊢
                have Hwd := Lib.hid twd
                have HNwd := Lib.hid hnwd
                clear twd hnwd hgd
                have hbd := below_next HBc.out HNwd.out
                clear hgwd Hwd
                clear HOR
                have HCv := Lib.hid (HCw.out.below hbd)
                have HMv := Lib.hid (carry HMw.out hbd)
                go_wp2_with fail
                refine (V1.out wd HCv.out HMv.out).mono ?_
                rintro e w30 ⟨V, vc, vN, rfl, _, hvN, hvor, hb30⟩
                have HVO := Lib.hid hvor
                clear hvor
                go_wp2_with fail
                refine (V2.out w30 (HCv.out.below hb30) (carry HMv.out hb30)).mono ?_
                rintro e w31 ⟨V', vc', vN', rfl, _, hvN', hvor', hs⟩
                have hb31 := below_next hbd (below_next hb30 hs)
                clear hs hb30
                have HKn := Lib.hid (known02 m w31 (HCw.out.below hb31) (carry HMw.out hb31))
                rcases HVO.out with ⟨rfl, hv1⟩ | ⟨rfl, _, _, _⟩
                · obtain ⟨rfl, rfl, rfl⟩ := val_both HBO.out HA.out hvN hvN' hv1 hvor'
                  clear hvor' hv1 hvN hvN' HVO
                  go_wp2_with fail
                  refine HKn.out.mono ?_
                  rintro e w32 ⟨rfl, hs⟩
                  go_wp2_with fail
                  go_ret
                  exact ⟨rfl, below_next HBW.out (below_next hb31 hs)⟩
                · clear hvor' hvN hvN' HVO
                  go_wp2_with fail
                  refine HKn.out.mono ?_
                  rintro e w32 ⟨rfl, hs⟩
                  go_wp2_with fail
                  go_ret
                  exact ⟨rfl, below_next HBW.out (below_next hb31 hs)⟩
              · have HT := Lib.hid (tag_both HBO.out HA.out hN hat)
                cases flag
                · obtain ⟨A, pn, pc, rfl⟩ : ∃ A pn pc, v = .slice A pn pc := by
                    obtain ⟨A, cap, h, _⟩ := attrRow_of hown
                    exact ⟨_, _, _, h⟩
                  obtain ⟨nm, hnm⟩ : ∃ nm, nm = bl (tgName (tlS s a)) := ⟨_, rfl⟩
                  rw [show (if false = true then tokA 3 (bl (tgName (tlS s a))) (.slice none 0 0) false else tokA 2 (bl (tgName (tlS s a))) (.slice A pn pc) sc) = tokA 2 nm (.slice A pn pc) sc from by rw [hnm]; rfl]
                  have HNM := Lib.hid hnm
                  clear hnm
                  unfold tokA
                  go_wp2_with fail
                  obtain ⟨wc, hW⟩ : ∃ x, x = w24.alloc (.cells #[.int .i64 2, .string nm, .bool false, .string ⟨#[]⟩, .bool false, .string ⟨#[]⟩, .bool false, .bool false, .slice A pn pc, .bool sc, .string ⟨#[]⟩, .int .i32 0] 40) := ⟨_, rfl⟩
                  rw [← hW]
                  obtain ⟨twc, hnwc, hgwc⟩ := tok_new w24 #[.int .i64 2, .string nm, .bool false, .string ⟨#[]⟩, .bool false, .string ⟨#[]⟩, .bool false, .bool false, .slice A pn pc, .bool sc, .string ⟨#[]⟩, .int .i32 0] wc hW
                  clear hW
                  obtain ⟨gc, hgc⟩ : ∃ x, x = w24.heap.size := ⟨_, rfl⟩
                  rw [← hgc] at twc hgwc ⊢
                  have Hwc := Lib.hid twc
                  have HNwc := Lib.hid hnwc
                  clear twc hnwc hgc
                  have hbc := below_next hb24 HNwc.out
                  have HR1c := Lib.hid ((attrRow_of hown).below HNwc.out)
                  refine (T2.out wc (HCt.out.below hbc) (carry HMt.out hbc)).mono ?_
                  rintro e w25 ⟨tk', cl', N', rfl, hs25, _, hN', hor'⟩
                  have HBc := Lib.hid (below_next hb22 (below_next hbc hs25))
                  have HTC := Lib.hid ((hs25.block gc hgwc).trans Hwc.out)
                  have hgc : gc < w25.heap.size := Nat.lt_of_lt_of_le hgwc hs25.size
                  rcases hor' with ⟨_, _, _, hnn⟩ | ⟨rfl, acc', sc', v', hat', hown', hacc', rfl⟩
                  · exact absurd (HT.out.1.symm.trans hnn) (by simp)
                  obtain ⟨A', pn', pc', rfl⟩ : ∃ A pn pc, v' = .slice A pn pc := by
                    obtain ⟨A, cap, h, _⟩ := attrRow_of hown'
                    exact ⟨_, _, _, h⟩
                  obtain ⟨rfl, rfl, rfl⟩ := tag_eq HBO.out hN hN' HT.out.1 hat'
                  rw [show (if false = true then tokA 3 (bl (tgName (tlS both a))) (.slice none 0 0) false else tokA 2 (bl (tgName (tlS both a))) (.slice A' pn' pc') sc) = tokA 2 nm (.slice A' pn' pc') sc from by rw [HT.out.2, ← HNM.out]; rfl]
                  unfold tokA
                  have HR1d := Lib.hid (HR1c.out.below hs25)
                  have HR2d := Lib.hid (attrRow_of hown')
                  have HAC := Lib.hid (show acc.length ≤ 1000000 by have := HBO.out; have := G3.out; omega)
                  clear hat hat' hown hown' hacc hacc' hN hN' hs25 hbc hb24 Hwc hgwc
                  have HL2 := Lib.hid (tok_new w25 #[.int .i64 2, .string nm, .bool false, .string ⟨#[]⟩, .bool false, .string ⟨#[]⟩, .bool false, .bool false, .slice A' pn' pc', .bool sc, .string ⟨#[]⟩, .int .i32 0] _ rfl).1
                  have HL1 := Lib.hid (((tok_new w25 #[.int .i64 2, .string nm, .bool false, .string ⟨#[]⟩, .bool false, .string ⟨#[]⟩, .bool false, .bool false, .slice A' pn' pc', .bool sc, .string ⟨#[]⟩, .int .i32 0] _ rfl).2.1.block gc hgc).trans HTC.out)
                  have HLN := Lib.hid (tok_new w25 #[.int .i64 2, .string nm, .bool false, .string ⟨#[]⟩, .bool false, .string ⟨#[]⟩, .bool false, .bool false, .slice A' pn' pc', .bool sc, .string ⟨#[]⟩, .int .i32 0] _ rfl).2.1
                  go_simp
                  repeat (first
                    | refine wpList_load_wanted (by rfl) 40 _ rfl gc rfl 40 #[.int .i64 2, .string nm, .bool false, .string ⟨#[]⟩, .bool false, .string ⟨#[]⟩, .bool false, .bool false, .slice A pn pc, .bool sc, .string ⟨#[]⟩, .int .i32 0] (0, 0) _ HL1.out Tryz.underlying40 rfl (by kernel_rfl) ?_
                    | refine wpList_load_wanted (by rfl) 40 _ rfl w25.heap.size rfl 40 #[.int .i64 2, .string nm, .bool false, .string ⟨#[]⟩, .bool false, .string ⟨#[]⟩, .bool false, .bool false, .slice A' pn' pc', .bool sc, .string ⟨#[]⟩, .int .i32 0] (0, 0) _ HL2.out Tryz.underlying40 rfl (by kernel_rfl) ?_
                    | go_values
                    | go_skip
                    | go_guarded
                    | go_step
                    | go_upon
                    | go_back)
                  obtain ⟨wd, hW⟩ : ∃ x, x = w25.alloc (.cells #[.int .i64 2, .string nm, .bool false, .string ⟨#[]⟩, .bool false, .string ⟨#[]⟩, .bool false, .bool false, .slice A' pn' pc', .bool sc, .string ⟨#[]⟩, .int .i32 0] 40) := ⟨_, rfl⟩
                  rw [← hW]
                  rw [← hW] at HLN
                  clear hW HL1 HL2
                  have HBd := Lib.hid (below_next HBc.out HLN.out)
                  have HR1 := Lib.hid (HR1d.out.below HLN.out)
                  have HR2 := Lib.hid (HR2d.out.below HLN.out)
                  refine (sameToken 2 nm false ⟨#[]⟩ false ⟨#[]⟩ false false (.slice A pn pc) (.slice A' pn' pc') sc ⟨#[]⟩ 0 acc HAC.out wd HR1.out HR2.out).mono ?_
                  rintro e w26 ⟨rfl, hs⟩
                  have hb26 := below_next HBd.out hs
                  clear hs
                  clear HOR
                  have HCv := Lib.hid (HCw.out.below hb26)
                  have HMv := Lib.hid (carry HMw.out hb26)
                  go_wp2_with fail
                  refine (V1.out w26 HCv.out HMv.out).mono ?_
                  rintro e w30 ⟨V, vc, vN, rfl, _, hvN, hvor, hb30⟩
                  have HVO := Lib.hid hvor
                  clear hvor
                  go_wp2_with fail
                  refine (V2.out w30 (HCv.out.below hb30) (carry HMv.out hb30)).mono ?_
                  rintro e w31 ⟨V', vc', vN', rfl, _, hvN', hvor', hs⟩
                  have hb31 := below_next hb26 (below_next hb30 hs)
                  clear hs hb30
                  have HKn := Lib.hid (known02 m w31 (HCw.out.below hb31) (carry HMw.out hb31))
                  rcases HVO.out with ⟨rfl, hv1⟩ | ⟨rfl, _, _, _⟩
                  · obtain ⟨rfl, rfl, rfl⟩ := val_both HBO.out HA.out hvN hvN' hv1 hvor'
                    clear hvor' hv1 hvN hvN' HVO
                    go_wp2_with fail
                    refine HKn.out.mono ?_
                    rintro e w32 ⟨rfl, hs⟩
                    go_wp2_with fail
                    go_ret
                    exact ⟨rfl, below_next HBW.out (below_next hb31 hs)⟩
                  · clear hvor' hvN hvN' HVO
                    go_wp2_with fail
                    refine HKn.out.mono ?_
                    rintro e w32 ⟨rfl, hs⟩
                    go_wp2_with fail
                    go_ret
                    exact ⟨rfl, below_next HBW.out (below_next hb31 hs)⟩
                · obtain ⟨A, pn, pc, rfl⟩ : ∃ A pn pc, v = .slice A pn pc := by
                    obtain ⟨A, cap, h, _⟩ := attrRow_of hown
                    exact ⟨_, _, _, h⟩
                  obtain ⟨nm, hnm⟩ : ∃ nm, nm = bl (tgName (tlS s a)) := ⟨_, rfl⟩
                  rw [show (if true = true then tokA 3 (bl (tgName (tlS s a))) (.slice none 0 0) false else tokA 2 (bl (tgName (tlS s a))) (.slice A pn pc) sc) = tokA 3 nm (.slice none 0 0) false from by rw [hnm]; rfl]
                  have HNM := Lib.hid hnm
                  clear hnm
                  unfold tokA
                  go_wp2_with fail
                  obtain ⟨wc, hW⟩ : ∃ x, x = w24.alloc (.cells #[.int .i64 3, .string nm, .bool false, .string ⟨#[]⟩, .bool false, .string ⟨#[]⟩, .bool false, .bool false, .slice none 0 0, .bool false, .string ⟨#[]⟩, .int .i32 0] 40) := ⟨_, rfl⟩
                  rw [← hW]
                  obtain ⟨twc, hnwc, hgwc⟩ := tok_new w24 #[.int .i64 3, .string nm, .bool false, .string ⟨#[]⟩, .bool false, .string ⟨#[]⟩, .bool false, .bool false, .slice none 0 0, .bool false, .string ⟨#[]⟩, .int .i32 0] wc hW
                  clear hW
                  obtain ⟨gc, hgc⟩ : ∃ x, x = w24.heap.size := ⟨_, rfl⟩
                  rw [← hgc] at twc hgwc ⊢
                  have Hwc := Lib.hid twc
                  have HNwc := Lib.hid hnwc
                  clear twc hnwc hgc
                  have hbc := below_next hb24 HNwc.out
                  have HR1c := Lib.hid ((attrRow_of hown).below HNwc.out)
                  refine (T2.out wc (HCt.out.below hbc) (carry HMt.out hbc)).mono ?_
                  rintro e w25 ⟨tk', cl', N', rfl, hs25, _, hN', hor'⟩
                  have HBc := Lib.hid (below_next hb22 (below_next hbc hs25))
                  have HTC := Lib.hid ((hs25.block gc hgwc).trans Hwc.out)
                  have hgc : gc < w25.heap.size := Nat.lt_of_lt_of_le hgwc hs25.size
                  rcases hor' with ⟨_, _, _, hnn⟩ | ⟨rfl, acc', sc', v', hat', hown', hacc', rfl⟩
                  · exact absurd (HT.out.1.symm.trans hnn) (by simp)
                  obtain ⟨A', pn', pc', rfl⟩ : ∃ A pn pc, v' = .slice A pn pc := by
                    obtain ⟨A, cap, h, _⟩ := attrRow_of hown'
                    exact ⟨_, _, _, h⟩
                  obtain ⟨rfl, rfl, rfl⟩ := tag_eq HBO.out hN hN' HT.out.1 hat'
                  rw [show (if true = true then tokA 3 (bl (tgName (tlS both a))) (.slice none 0 0) false else tokA 2 (bl (tgName (tlS both a))) (.slice A' pn' pc') sc) = tokA 3 nm (.slice none 0 0) false from by rw [HT.out.2, ← HNM.out]; rfl]
                  unfold tokA
                  have HR1d := Lib.hid (HR1c.out.below hs25)
                  have HR2d := Lib.hid (attrRow_of hown')
                  have HAC := Lib.hid (show acc.length ≤ 1000000 by have := HBO.out; have := G3.out; omega)
                  clear hat hat' hown hown' hacc hacc' hN hN' hs25 hbc hb24 Hwc hgwc
                  have HL2 := Lib.hid (tok_new w25 #[.int .i64 3, .string nm, .bool false, .string ⟨#[]⟩, .bool false, .string ⟨#[]⟩, .bool false, .bool false, .slice none 0 0, .bool false, .string ⟨#[]⟩, .int .i32 0] _ rfl).1
                  have HL1 := Lib.hid (((tok_new w25 #[.int .i64 3, .string nm, .bool false, .string ⟨#[]⟩, .bool false, .string ⟨#[]⟩, .bool false, .bool false, .slice none 0 0, .bool false, .string ⟨#[]⟩, .int .i32 0] _ rfl).2.1.block gc hgc).trans HTC.out)
                  have HLN := Lib.hid (tok_new w25 #[.int .i64 3, .string nm, .bool false, .string ⟨#[]⟩, .bool false, .string ⟨#[]⟩, .bool false, .bool false, .slice none 0 0, .bool false, .string ⟨#[]⟩, .int .i32 0] _ rfl).2.1
                  go_simp
                  repeat (first
                    | refine wpList_load_wanted (by rfl) 40 _ rfl gc rfl 40 #[.int .i64 3, .string nm, .bool false, .string ⟨#[]⟩, .bool false, .string ⟨#[]⟩, .bool false, .bool false, .slice none 0 0, .bool false, .string ⟨#[]⟩, .int .i32 0] (0, 0) _ HL1.out Tryz.underlying40 rfl (by kernel_rfl) ?_
                    | refine wpList_load_wanted (by rfl) 40 _ rfl w25.heap.size rfl 40 #[.int .i64 3, .string nm, .bool false, .string ⟨#[]⟩, .bool false, .string ⟨#[]⟩, .bool false, .bool false, .slice none 0 0, .bool false, .string ⟨#[]⟩, .int .i32 0] (0, 0) _ HL2.out Tryz.underlying40 rfl (by kernel_rfl) ?_
                    | go_values
                    | go_skip
                    | go_guarded
                    | go_step
                    | go_upon
                    | go_back)
                  obtain ⟨wd, hW⟩ : ∃ x, x = w25.alloc (.cells #[.int .i64 3, .string nm, .bool false, .string ⟨#[]⟩, .bool false, .string ⟨#[]⟩, .bool false, .bool false, .slice none 0 0, .bool false, .string ⟨#[]⟩, .int .i32 0] 40) := ⟨_, rfl⟩
                  rw [← hW]
                  rw [← hW] at HLN
                  clear hW HL1 HL2
                  have HBd := Lib.hid (below_next HBc.out HLN.out)
                  have HR1 := Lib.hid (HR1d.out.below HLN.out)
                  have HR2 := Lib.hid (HR2d.out.below HLN.out)
                  refine (sameToken 3 nm false ⟨#[]⟩ false ⟨#[]⟩ false false (.slice none 0 0) (.slice none 0 0) false ⟨#[]⟩ 0 [] (by decide) wd (attrRow_nil _) (attrRow_nil _)).mono ?_
                  rintro e w26 ⟨rfl, hs⟩
                  have hb26 := below_next HBd.out hs
                  clear hs
                  clear HOR
                  have HCv := Lib.hid (HCw.out.below hb26)
                  have HMv := Lib.hid (carry HMw.out hb26)
                  go_wp2_with fail
                  refine (V1.out w26 HCv.out HMv.out).mono ?_
                  rintro e w30 ⟨V, vc, vN, rfl, _, hvN, hvor, hb30⟩
                  have HVO := Lib.hid hvor
                  clear hvor
                  go_wp2_with fail
                  refine (V2.out w30 (HCv.out.below hb30) (carry HMv.out hb30)).mono ?_
                  rintro e w31 ⟨V', vc', vN', rfl, _, hvN', hvor', hs⟩
                  have hb31 := below_next hb26 (below_next hb30 hs)
                  clear hs hb30
                  have HKn := Lib.hid (known02 m w31 (HCw.out.below hb31) (carry HMw.out hb31))
                  rcases HVO.out with ⟨rfl, hv1⟩ | ⟨rfl, _, _, _⟩
                  · obtain ⟨rfl, rfl, rfl⟩ := val_both HBO.out HA.out hvN hvN' hv1 hvor'
                    clear hvor' hv1 hvN hvN' HVO
                    go_wp2_with fail
                    refine HKn.out.mono ?_
                    rintro e w32 ⟨rfl, hs⟩
                    go_wp2_with fail
                    go_ret
                    exact ⟨rfl, below_next HBW.out (below_next hb31 hs)⟩
                  · clear hvor' hvN hvN' HVO
                    go_wp2_with fail
                    refine HKn.out.mono ?_
                    rintro e w32 ⟨rfl, hs⟩
                    go_wp2_with fail
                    go_ret
                    exact ⟨rfl, below_next HBW.out (below_next hb31 hs)⟩
            · have hpI : ¬ (p : Int) < (s.size : Int) := by omega
              unfold tokD
              clear hp hpl
              go_wp2_with fail
              obtain ⟨wb, hW⟩ : ∃ x, x = w21.alloc (.cells #[.int .i64 1, .string d'.name, .bool d'.hn, .string d'.pub, .bool d'.hp, .string d'.sys, .bool d'.hs, .bool d'.qk, .slice none 0 0, .bool false, .string ⟨#[]⟩, .int .i32 0] 40) := ⟨_, rfl⟩
              rw [← hW]
              obtain ⟨twb, hnwb, hgwb⟩ := tok_new w21 #[.int .i64 1, .string d'.name, .bool d'.hn, .string d'.pub, .bool d'.hp, .string d'.sys, .bool d'.hs, .bool d'.qk, .slice none 0 0, .bool false, .string ⟨#[]⟩, .int .i32 0] wb hW
              clear hW
              obtain ⟨gb, hgb⟩ : ∃ x, x = w21.heap.size := ⟨_, rfl⟩
              rw [← hgb] at twb hgwb ⊢
              have Hwb := Lib.hid twb
              have HNwb := Lib.hid hnwb
              clear twb hnwb hgb
              have hbb := below_next HB21.out HNwb.out
              clear hga hgwb Hwb
              have HCt := Lib.hid (HCw.out.below hbb)
              have HMt := Lib.hid (carry HMw.out hbb)
              go_wp2_with fail
              refine (T1.out wb HCt.out HMt.out).mono ?_
              rintro e w24 ⟨tk, cl, N, rfl, hb24, _, hN, hor⟩
              have HOR := Lib.hid hor
              clear hor
              rcases HOR.out with ⟨rfl, rfl, _, _⟩ | ⟨rfl, acc, sc, v, hat, hown, hacc, rfl⟩
              · unfold tokA
                go_wp2_with fail
                obtain ⟨wc, hW⟩ : ∃ x, x = w24.alloc (.cells #[.int .i64 0, .string ⟨#[]⟩, .bool false, .string ⟨#[]⟩, .bool false, .string ⟨#[]⟩, .bool false, .bool false, .slice none 0 0, .bool false, .string ⟨#[]⟩, .int .i32 0] 40) := ⟨_, rfl⟩
                rw [← hW]
                obtain ⟨twc, hnwc, hgwc⟩ := tok_new w24 #[.int .i64 0, .string ⟨#[]⟩, .bool false, .string ⟨#[]⟩, .bool false, .string ⟨#[]⟩, .bool false, .bool false, .slice none 0 0, .bool false, .string ⟨#[]⟩, .int .i32 0] wc hW
                clear hW
                obtain ⟨gc, hgc⟩ : ∃ x, x = w24.heap.size := ⟨_, rfl⟩
                rw [← hgc] at twc hgwc ⊢
                have Hwc := Lib.hid twc
                have HNwc := Lib.hid hnwc
                clear twc hnwc hgc
                have hbc := below_next hb24 HNwc.out
                refine (T2.out wc (HCt.out.below hbc) (carry HMt.out hbc)).mono ?_
                rintro e w25 ⟨tk', cl', N', rfl, hs25, _, _, hor'⟩
                have HBc := Lib.hid (below_next hbb (below_next hbc hs25))
                obtain ⟨k', n', A', pn', pc', sc', rfl⟩ := tag_form hor'
                clear hor' hs25 hbc hb24 hN Hwc hgwc
                unfold tokA
                go_wp2_with fail
                obtain ⟨wd, hW⟩ : ∃ x, x = w25.alloc (.cells #[.int .i64 k', .string n', .bool false, .string ⟨#[]⟩, .bool false, .string ⟨#[]⟩, .bool false, .bool false, .slice A' pn' pc', .bool sc', .string ⟨#[]⟩, .int .i32 0] 40) := ⟨_, rfl⟩
                rw [← hW]
                obtain ⟨twd, hnwd, hgwd⟩ := tok_new w25 #[.int .i64 k', .string n', .bool false, .string ⟨#[]⟩, .bool false, .string ⟨#[]⟩, .bool false, .bool false, .slice A' pn' pc', .bool sc', .string ⟨#[]⟩, .int .i32 0] wd hW
                clear hW
                obtain ⟨gd, hgd⟩ : ∃ x, x = w25.heap.size := ⟨_, rfl⟩
                rw [← hgd] at twd hgwd ⊢
                have Hwd := Lib.hid twd
                have HNwd := Lib.hid hnwd
                clear twd hnwd hgd
                have hbd := below_next HBc.out HNwd.out
                clear hgwd Hwd
                clear HOR
                have HCv := Lib.hid (HCw.out.below hbd)
                have HMv := Lib.hid (carry HMw.out hbd)
                go_wp2_with fail
                refine (V1.out wd HCv.out HMv.out).mono ?_
                rintro e w30 ⟨V, vc, vN, rfl, _, hvN, hvor, hb30⟩
                have HVO := Lib.hid hvor
                clear hvor
                go_wp2_with fail
                refine (V2.out w30 (HCv.out.below hb30) (carry HMv.out hb30)).mono ?_
                rintro e w31 ⟨V', vc', vN', rfl, _, hvN', hvor', hs⟩
                have hb31 := below_next hbd (below_next hb30 hs)
                clear hs hb30
                have HKn := Lib.hid (known02 m w31 (HCw.out.below hb31) (carry HMw.out hb31))
                rcases HVO.out with ⟨rfl, hv1⟩ | ⟨rfl, _, _, _⟩
                · obtain ⟨rfl, rfl, rfl⟩ := val_both HBO.out HA.out hvN hvN' hv1 hvor'
                  clear hvor' hv1 hvN hvN' HVO
                  go_wp2_with fail
                  refine HKn.out.mono ?_
                  rintro e w32 ⟨rfl, hs⟩
                  go_wp2_with fail
                  go_ret
                  exact ⟨rfl, below_next HBW.out (below_next hb31 hs)⟩
                · clear hvor' hvN hvN' HVO
                  go_wp2_with fail
                  refine HKn.out.mono ?_
                  rintro e w32 ⟨rfl, hs⟩
                  go_wp2_with fail
                  go_ret
                  exact ⟨rfl, below_next HBW.out (below_next hb31 hs)⟩
              · have HT := Lib.hid (tag_both HBO.out HA.out hN hat)
                cases flag
                · obtain ⟨A, pn, pc, rfl⟩ : ∃ A pn pc, v = .slice A pn pc := by
                    obtain ⟨A, cap, h, _⟩ := attrRow_of hown
                    exact ⟨_, _, _, h⟩
                  obtain ⟨nm, hnm⟩ : ∃ nm, nm = bl (tgName (tlS s a)) := ⟨_, rfl⟩
                  rw [show (if false = true then tokA 3 (bl (tgName (tlS s a))) (.slice none 0 0) false else tokA 2 (bl (tgName (tlS s a))) (.slice A pn pc) sc) = tokA 2 nm (.slice A pn pc) sc from by rw [hnm]; rfl]
                  have HNM := Lib.hid hnm
                  clear hnm
                  unfold tokA
                  go_wp2_with fail
                  obtain ⟨wc, hW⟩ : ∃ x, x = w24.alloc (.cells #[.int .i64 2, .string nm, .bool false, .string ⟨#[]⟩, .bool false, .string ⟨#[]⟩, .bool false, .bool false, .slice A pn pc, .bool sc, .string ⟨#[]⟩, .int .i32 0] 40) := ⟨_, rfl⟩
                  rw [← hW]
                  obtain ⟨twc, hnwc, hgwc⟩ := tok_new w24 #[.int .i64 2, .string nm, .bool false, .string ⟨#[]⟩, .bool false, .string ⟨#[]⟩, .bool false, .bool false, .slice A pn pc, .bool sc, .string ⟨#[]⟩, .int .i32 0] wc hW
                  clear hW
                  obtain ⟨gc, hgc⟩ : ∃ x, x = w24.heap.size := ⟨_, rfl⟩
                  rw [← hgc] at twc hgwc ⊢
                  have Hwc := Lib.hid twc
                  have HNwc := Lib.hid hnwc
                  clear twc hnwc hgc
                  have hbc := below_next hb24 HNwc.out
                  have HR1c := Lib.hid ((attrRow_of hown).below HNwc.out)
                  refine (T2.out wc (HCt.out.below hbc) (carry HMt.out hbc)).mono ?_
                  rintro e w25 ⟨tk', cl', N', rfl, hs25, _, hN', hor'⟩
                  have HBc := Lib.hid (below_next hbb (below_next hbc hs25))
                  have HTC := Lib.hid ((hs25.block gc hgwc).trans Hwc.out)
                  have hgc : gc < w25.heap.size := Nat.lt_of_lt_of_le hgwc hs25.size
                  rcases hor' with ⟨_, _, _, hnn⟩ | ⟨rfl, acc', sc', v', hat', hown', hacc', rfl⟩
                  · exact absurd (HT.out.1.symm.trans hnn) (by simp)
                  obtain ⟨A', pn', pc', rfl⟩ : ∃ A pn pc, v' = .slice A pn pc := by
                    obtain ⟨A, cap, h, _⟩ := attrRow_of hown'
                    exact ⟨_, _, _, h⟩
                  obtain ⟨rfl, rfl, rfl⟩ := tag_eq HBO.out hN hN' HT.out.1 hat'
                  rw [show (if false = true then tokA 3 (bl (tgName (tlS both a))) (.slice none 0 0) false else tokA 2 (bl (tgName (tlS both a))) (.slice A' pn' pc') sc) = tokA 2 nm (.slice A' pn' pc') sc from by rw [HT.out.2, ← HNM.out]; rfl]
                  unfold tokA
                  have HR1d := Lib.hid (HR1c.out.below hs25)
                  have HR2d := Lib.hid (attrRow_of hown')
                  have HAC := Lib.hid (show acc.length ≤ 1000000 by have := HBO.out; have := G3.out; omega)
                  clear hat hat' hown hown' hacc hacc' hN hN' hs25 hbc hb24 Hwc hgwc
                  have HL2 := Lib.hid (tok_new w25 #[.int .i64 2, .string nm, .bool false, .string ⟨#[]⟩, .bool false, .string ⟨#[]⟩, .bool false, .bool false, .slice A' pn' pc', .bool sc, .string ⟨#[]⟩, .int .i32 0] _ rfl).1
                  have HL1 := Lib.hid (((tok_new w25 #[.int .i64 2, .string nm, .bool false, .string ⟨#[]⟩, .bool false, .string ⟨#[]⟩, .bool false, .bool false, .slice A' pn' pc', .bool sc, .string ⟨#[]⟩, .int .i32 0] _ rfl).2.1.block gc hgc).trans HTC.out)
                  have HLN := Lib.hid (tok_new w25 #[.int .i64 2, .string nm, .bool false, .string ⟨#[]⟩, .bool false, .string ⟨#[]⟩, .bool false, .bool false, .slice A' pn' pc', .bool sc, .string ⟨#[]⟩, .int .i32 0] _ rfl).2.1
                  go_simp
                  repeat (first
                    | refine wpList_load_wanted (by rfl) 40 _ rfl gc rfl 40 #[.int .i64 2, .string nm, .bool false, .string ⟨#[]⟩, .bool false, .string ⟨#[]⟩, .bool false, .bool false, .slice A pn pc, .bool sc, .string ⟨#[]⟩, .int .i32 0] (0, 0) _ HL1.out Tryz.underlying40 rfl (by kernel_rfl) ?_
                    | refine wpList_load_wanted (by rfl) 40 _ rfl w25.heap.size rfl 40 #[.int .i64 2, .string nm, .bool false, .string ⟨#[]⟩, .bool false, .string ⟨#[]⟩, .bool false, .bool false, .slice A' pn' pc', .bool sc, .string ⟨#[]⟩, .int .i32 0] (0, 0) _ HL2.out Tryz.underlying40 rfl (by kernel_rfl) ?_
                    | go_values
                    | go_skip
                    | go_guarded
                    | go_step
                    | go_upon
                    | go_back)
                  obtain ⟨wd, hW⟩ : ∃ x, x = w25.alloc (.cells #[.int .i64 2, .string nm, .bool false, .string ⟨#[]⟩, .bool false, .string ⟨#[]⟩, .bool false, .bool false, .slice A' pn' pc', .bool sc, .string ⟨#[]⟩, .int .i32 0] 40) := ⟨_, rfl⟩
                  rw [← hW]
                  rw [← hW] at HLN
                  clear hW HL1 HL2
                  have HBd := Lib.hid (below_next HBc.out HLN.out)
                  have HR1 := Lib.hid (HR1d.out.below HLN.out)
                  have HR2 := Lib.hid (HR2d.out.below HLN.out)
                  refine (sameToken 2 nm false ⟨#[]⟩ false ⟨#[]⟩ false false (.slice A pn pc) (.slice A' pn' pc') sc ⟨#[]⟩ 0 acc HAC.out wd HR1.out HR2.out).mono ?_
                  rintro e w26 ⟨rfl, hs⟩
                  have hb26 := below_next HBd.out hs
                  clear hs
                  clear HOR
                  have HCv := Lib.hid (HCw.out.below hb26)
                  have HMv := Lib.hid (carry HMw.out hb26)
                  go_wp2_with fail
                  refine (V1.out w26 HCv.out HMv.out).mono ?_
                  rintro e w30 ⟨V, vc, vN, rfl, _, hvN, hvor, hb30⟩
                  have HVO := Lib.hid hvor
                  clear hvor
                  go_wp2_with fail
                  refine (V2.out w30 (HCv.out.below hb30) (carry HMv.out hb30)).mono ?_
                  rintro e w31 ⟨V', vc', vN', rfl, _, hvN', hvor', hs⟩
                  have hb31 := below_next hb26 (below_next hb30 hs)
                  clear hs hb30
                  have HKn := Lib.hid (known02 m w31 (HCw.out.below hb31) (carry HMw.out hb31))
                  rcases HVO.out with ⟨rfl, hv1⟩ | ⟨rfl, _, _, _⟩
                  · obtain ⟨rfl, rfl, rfl⟩ := val_both HBO.out HA.out hvN hvN' hv1 hvor'
                    clear hvor' hv1 hvN hvN' HVO
                    go_wp2_with fail
                    refine HKn.out.mono ?_
                    rintro e w32 ⟨rfl, hs⟩
                    go_wp2_with fail
                    go_ret
                    exact ⟨rfl, below_next HBW.out (below_next hb31 hs)⟩
                  · clear hvor' hvN hvN' HVO
                    go_wp2_with fail
                    refine HKn.out.mono ?_
                    rintro e w32 ⟨rfl, hs⟩
                    go_wp2_with fail
                    go_ret
                    exact ⟨rfl, below_next HBW.out (below_next hb31 hs)⟩
                · obtain ⟨A, pn, pc, rfl⟩ : ∃ A pn pc, v = .slice A pn pc := by
                    obtain ⟨A, cap, h, _⟩ := attrRow_of hown
                    exact ⟨_, _, _, h⟩
                  obtain ⟨nm, hnm⟩ : ∃ nm, nm = bl (tgName (tlS s a)) := ⟨_, rfl⟩
                  rw [show (if true = true then tokA 3 (bl (tgName (tlS s a))) (.slice none 0 0) false else tokA 2 (bl (tgName (tlS s a))) (.slice A pn pc) sc) = tokA 3 nm (.slice none 0 0) false from by rw [hnm]; rfl]
                  have HNM := Lib.hid hnm
                  clear hnm
                  unfold tokA
                  go_wp2_with fail
                  obtain ⟨wc, hW⟩ : ∃ x, x = w24.alloc (.cells #[.int .i64 3, .string nm, .bool false, .string ⟨#[]⟩, .bool false, .string ⟨#[]⟩, .bool false, .bool false, .slice none 0 0, .bool false, .string ⟨#[]⟩, .int .i32 0] 40) := ⟨_, rfl⟩
                  rw [← hW]
                  obtain ⟨twc, hnwc, hgwc⟩ := tok_new w24 #[.int .i64 3, .string nm, .bool false, .string ⟨#[]⟩, .bool false, .string ⟨#[]⟩, .bool false, .bool false, .slice none 0 0, .bool false, .string ⟨#[]⟩, .int .i32 0] wc hW
                  clear hW
                  obtain ⟨gc, hgc⟩ : ∃ x, x = w24.heap.size := ⟨_, rfl⟩
                  rw [← hgc] at twc hgwc ⊢
                  have Hwc := Lib.hid twc
                  have HNwc := Lib.hid hnwc
                  clear twc hnwc hgc
                  have hbc := below_next hb24 HNwc.out
                  have HR1c := Lib.hid ((attrRow_of hown).below HNwc.out)
                  refine (T2.out wc (HCt.out.below hbc) (carry HMt.out hbc)).mono ?_
                  rintro e w25 ⟨tk', cl', N', rfl, hs25, _, hN', hor'⟩
                  have HBc := Lib.hid (below_next hbb (below_next hbc hs25))
                  have HTC := Lib.hid ((hs25.block gc hgwc).trans Hwc.out)
                  have hgc : gc < w25.heap.size := Nat.lt_of_lt_of_le hgwc hs25.size
                  rcases hor' with ⟨_, _, _, hnn⟩ | ⟨rfl, acc', sc', v', hat', hown', hacc', rfl⟩
                  · exact absurd (HT.out.1.symm.trans hnn) (by simp)
                  obtain ⟨A', pn', pc', rfl⟩ : ∃ A pn pc, v' = .slice A pn pc := by
                    obtain ⟨A, cap, h, _⟩ := attrRow_of hown'
                    exact ⟨_, _, _, h⟩
                  obtain ⟨rfl, rfl, rfl⟩ := tag_eq HBO.out hN hN' HT.out.1 hat'
                  rw [show (if true = true then tokA 3 (bl (tgName (tlS both a))) (.slice none 0 0) false else tokA 2 (bl (tgName (tlS both a))) (.slice A' pn' pc') sc) = tokA 3 nm (.slice none 0 0) false from by rw [HT.out.2, ← HNM.out]; rfl]
                  unfold tokA
                  have HR1d := Lib.hid (HR1c.out.below hs25)
                  have HR2d := Lib.hid (attrRow_of hown')
                  have HAC := Lib.hid (show acc.length ≤ 1000000 by have := HBO.out; have := G3.out; omega)
                  clear hat hat' hown hown' hacc hacc' hN hN' hs25 hbc hb24 Hwc hgwc
                  have HL2 := Lib.hid (tok_new w25 #[.int .i64 3, .string nm, .bool false, .string ⟨#[]⟩, .bool false, .string ⟨#[]⟩, .bool false, .bool false, .slice none 0 0, .bool false, .string ⟨#[]⟩, .int .i32 0] _ rfl).1
                  have HL1 := Lib.hid (((tok_new w25 #[.int .i64 3, .string nm, .bool false, .string ⟨#[]⟩, .bool false, .string ⟨#[]⟩, .bool false, .bool false, .slice none 0 0, .bool false, .string ⟨#[]⟩, .int .i32 0] _ rfl).2.1.block gc hgc).trans HTC.out)
                  have HLN := Lib.hid (tok_new w25 #[.int .i64 3, .string nm, .bool false, .string ⟨#[]⟩, .bool false, .string ⟨#[]⟩, .bool false, .bool false, .slice none 0 0, .bool false, .string ⟨#[]⟩, .int .i32 0] _ rfl).2.1
                  go_simp
                  repeat (first
                    | refine wpList_load_wanted (by rfl) 40 _ rfl gc rfl 40 #[.int .i64 3, .string nm, .bool false, .string ⟨#[]⟩, .bool false, .string ⟨#[]⟩, .bool false, .bool false, .slice none 0 0, .bool false, .string ⟨#[]⟩, .int .i32 0] (0, 0) _ HL1.out Tryz.underlying40 rfl (by kernel_rfl) ?_
                    | refine wpList_load_wanted (by rfl) 40 _ rfl w25.heap.size rfl 40 #[.int .i64 3, .string nm, .bool false, .string ⟨#[]⟩, .bool false, .string ⟨#[]⟩, .bool false, .bool false, .slice none 0 0, .bool false, .string ⟨#[]⟩, .int .i32 0] (0, 0) _ HL2.out Tryz.underlying40 rfl (by kernel_rfl) ?_
                    | go_values
                    | go_skip
                    | go_guarded
                    | go_step
                    | go_upon
                    | go_back)
                  obtain ⟨wd, hW⟩ : ∃ x, x = w25.alloc (.cells #[.int .i64 3, .string nm, .bool false, .string ⟨#[]⟩, .bool false, .string ⟨#[]⟩, .bool false, .bool false, .slice none 0 0, .bool false, .string ⟨#[]⟩, .int .i32 0] 40) := ⟨_, rfl⟩
                  rw [← hW]
                  rw [← hW] at HLN
                  clear hW HL1 HL2
                  have HBd := Lib.hid (below_next HBc.out HLN.out)
                  have HR1 := Lib.hid (HR1d.out.below HLN.out)
                  have HR2 := Lib.hid (HR2d.out.below HLN.out)
                  refine (sameToken 3 nm false ⟨#[]⟩ false ⟨#[]⟩ false false (.slice none 0 0) (.slice none 0 0) false ⟨#[]⟩ 0 [] (by decide) wd (attrRow_nil _) (attrRow_nil _)).mono ?_
                  rintro e w26 ⟨rfl, hs⟩
                  have hb26 := below_next HBd.out hs
                  clear hs
                  clear HOR
                  have HCv := Lib.hid (HCw.out.below hb26)
                  have HMv := Lib.hid (carry HMw.out hb26)
                  go_wp2_with fail
                  refine (V1.out w26 HCv.out HMv.out).mono ?_
                  rintro e w30 ⟨V, vc, vN, rfl, _, hvN, hvor, hb30⟩
                  have HVO := Lib.hid hvor
                  clear hvor
                  go_wp2_with fail
                  refine (V2.out w30 (HCv.out.below hb30) (carry HMv.out hb30)).mono ?_
                  rintro e w31 ⟨V', vc', vN', rfl, _, hvN', hvor', hs⟩
                  have hb31 := below_next hb26 (below_next hb30 hs)
                  clear hs hb30
                  have HKn := Lib.hid (known02 m w31 (HCw.out.below hb31) (carry HMw.out hb31))
                  rcases HVO.out with ⟨rfl, hv1⟩ | ⟨rfl, _, _, _⟩
                  · obtain ⟨rfl, rfl, rfl⟩ := val_both HBO.out HA.out hvN hvN' hv1 hvor'
                    clear hvor' hv1 hvN hvN' HVO
                    go_wp2_with fail
                    refine HKn.out.mono ?_
                    rintro e w32 ⟨rfl, hs⟩
                    go_wp2_with fail
                    go_ret
                    exact ⟨rfl, below_next HBW.out (below_next hb31 hs)⟩
                  · clear hvor' hvN hvN' HVO
                    go_wp2_with fail
                    refine HKn.out.mono ?_
                    rintro e w32 ⟨rfl, hs⟩
                    go_wp2_with fail
                    go_ret
                    exact ⟨rfl, below_next HBW.out (below_next hb31 hs)⟩
      · go_wp2_with fail
        generalize hwm : w14.alloc _ = wm
        have hbm : Below wl.heap.size wl wm := by rw [← hwm]; exact below_alloc hb14 _
        have HBM := Lib.hid (below_next HBL.out hbm)
        have HKm := Lib.hid (known02 m wm (HCl.out.below hbm) (carry HMl.out hbm))
        clear hwm hb9 hb10 hb11 hb12 hb13 hb14 hbm
        refine HKm.out.mono ?_
        rintro e w15 ⟨rfl, hs⟩
        go_wp2_with fail
        go_ret
        exact ⟨rfl, below_next HBM.out hs⟩
    · rw [decide_eq_false h2] at HS2
      clear h1 h2
      go_enter Tryz.func8, Tryz.ntmps8
      go_wp2_with fail
      refine (HS1.out w).mono ?_
      rintro e w1 ⟨rfl, rfl⟩
      go_wp2_with fail
      refine (HS2.out w1).mono ?_
      rintro e w2 ⟨rfl, rfl⟩
      go_wp2_with fail
      refine HK.out.mono ?_
      rintro e w4 ⟨rfl, hb⟩
      go_wp2_with fail
      go_ret
      exact ⟨rfl, hb⟩
  · rw [decide_eq_false h1] at HS1
    clear h1
    go_enter Tryz.func8, Tryz.ntmps8
    go_wp2_with fail
    refine (HS1.out w).mono ?_
    rintro e w1 ⟨rfl, rfl⟩
    go_wp2_with fail
    refine HK.out.mono ?_
    rintro e w4 ⟨rfl, hb⟩
    go_wp2_with fail
    go_ret
    exact ⟨rfl, hb⟩
end Go.Proofs.YtofiaodpjpjedaaGreatDoor

namespace Go.Proofs.YtofiaodpjpjedaaGreatDoor
open Go.ChangeShapes Go.WideShapes Go.ChangeAt Go.RowKit
set_option maxRecDepth 100000

def laidC : List (String × DataW Unit) := [("unicode/utf8.acceptRanges", Rows.laid_unicode_utf8_acceptRanges), ("thicket/text.controls", Rows.laid_thicket_text_controls), ("unicode/utf8.first", Rows.laid_unicode_utf8_first)]
theorem doorC_os (os : Os) : (World.laidAll Tryz.prog os laidC).os = os := World.laidAll_os _ _ _
theorem doorC_met (os : Os) (args : Array Value) : laidMetH Tryz.prog laidC ((World.laidAll Tryz.prog os laidC).forCall (fun _ _ => 0) ⟨#[], args, []⟩).memory := by
  rw [MakeChecks.laidMetH_plain _ _ _ (by kernel_rfl)]
  exact laidMet_laidAll _ (by kernel_rfl) (by kernel_rfl)

theorem gCtl : Tryz.prog.globalNamed "thicket/text.controls" = some 0 := by kernel_rfl
theorem tCtl : (Tryz.prog.globals[0]?).map (·.type) = some 99 := by kernel_rfl
theorem cCtl : Tryz.prog.cellsOf 21 = 1 := by kernel_rfl
theorem ctlD : (Rows.laid_thicket_text_controls : DataW Unit) = .agg (ctlT.map fun z => .lit (.int .i32 z)) := rfl

theorem ctl_of_laid {W : World} (h : laidMetH Tryz.prog laidC W) : CtlW W := by
  rw [MakeChecks.laidMetH_plain _ _ _ (by kernel_rfl)] at h
  obtain ⟨ps, ⟨g0, t0, cs0, f0, p0, q0, hg0, ht0, hv0, hd0, ⟨g1, t1, cs1, f1, p1, q1, hg1, ht1, hv1, hd1, _, _⟩, _⟩, _⟩ := h
  obtain rfl := Option.some.inj (gCtl.symm.trans hg1)
  obtain rfl := Option.some.inj (tCtl.symm.trans ht1)
  obtain ⟨xs, m1, rfl, hx1, hlen, hn, hel⟩ := DataW.trod_array Tryz.underlying99 hd1
  intro k hk
  have h1 := hel k hk
  rw [cCtl, Nat.mul_one] at h1
  have hxk : xs[k]? = some (xs[k]'(by omega)) := List.getElem?_eq_getElem (by omega)
  rw [hxk] at h1
  obtain ⟨z, e1, e2, _⟩ := DataW.trod_int Tryz.underlying21 h1
  have hz : z = ctlT.getD k 0 := by
    have hx2 := congrArg Prod.fst hx1
    rw [ctlD] at hx2
    simp only [DataW.agg.injEq] at hx2
    have h3 : (ctlT.map fun z => (DataW.lit (.int .i32 z) : DataW Unit))[k]? = (xs.map (·.1))[k]? := by rw [hx2]
    rw [List.getElem?_map, List.getElem?_map, hxk, e2] at h3
    have hk2 : k < ctlT.length := hk
    rw [List.getElem?_eq_getElem hk2] at h3
    simp at h3
    rw [List.getD_eq_getElem?_getD, List.getElem?_eq_getElem hk2]
    simpa using h3.symm
  rw [World.var?_cell hg1 hv1 k, ← hz]
  have h4 : (cs1.toList.drop k)[0]? = some (.int .i32 z) := by
    have := congrArg (fun l => l[0]?) e1
    simp only [List.getElem?_take] at this
    simpa using this
  rw [List.getElem?_drop, Nat.add_zero, Array.getElem?_toList] at h4
  exact h4

/-- A row whose start is said to hold more, with the shapes and the listed variables at hand. -/
theorem handedC {H : Type} {enc : TypeId × Value → H} {a : Assume} {os : Os} {f : FuncId} {fn : Func} {s : ChangeSpec} {conds : List PathCond} {apart fresh handsOn again : Bool}
    (own : ownKnob Tryz.prog.godebug = none) (started : os.Started) (noInit : Tryz.prog.inits.idxOf? f = none) (hfn : Tryz.prog.funcs[f]? = some fn)
    (witness : ∃ (w : World) (tape : Tape) (i : Input), w.os = os ∧ (w.forCall tape i).Shaped Tryz.prog ∧ i.vars = [] ∧ Input.okWide Tryz.prog (w.forCall tape i) .any w.heap.size f i ∧
      ((s.pre enc Tryz.prog fn conds apart (w.forCall tape i).memory i.args ∧ laidMetH Tryz.prog laidC (w.forCall tape i).memory) ∧ sizedMet enc Tryz.prog fn (OpenSpec.ofChange s) apart (w.forCall tape i).memory i.args) ∧ a.holds Tryz.prog (lone (Frame.enter Tryz.prog f i.args .normal) [] (w.forCall tape i)))
    (walk : ∀ (W : World) (base : Nat) (args : Array Value) (ds gs : List (DataW H)) (before : List MemPlace),
      (∀ (j : Nat) t v, fn.params[j]? = some t → args[j]? = some v → Value.okWide Tryz.prog W .any base t v) →
      DataW.Whole enc Tryz.prog fn.params.toList s.vars apart W args.toList ds gs before → W.ShapedOpen Tryz.prog → CtlW W →
      Calls Tryz.prog f args W fun e W' => ∃ v, e = .returned v ∧ s.post enc Tryz.prog fn apart fresh handsOn again W args v W') :
    ReturnsInHanded a Tryz.checked os f .any (fun w args => (s.pre enc Tryz.prog fn conds apart w args ∧ laidMetH Tryz.prog laidC w) ∧ sizedMet enc Tryz.prog fn (OpenSpec.ofChange s) apart w args) (s.post enc Tryz.prog fn apart fresh handsOn again) := by
  refine returnsInHanded_of_calls (C := Tryz.checked) own started (by exact noInit) witness ?_
  intro w tape i _ hsh _ hok hpre _
  obtain ⟨_, _, _, fn', hfn', _, _, _, _, hval⟩ := hok
  obtain rfl : fn' = fn := Option.some.inj (hfn'.symm.trans hfn)
  obtain ⟨⟨⟨ds, gs, before, hw, _⟩, hX⟩, _⟩ := hpre
  refine (walk (w.forCall tape i) w.heap.size i.args ds gs before hval (DataW.Whole.of_heap (w' := w.forCall tape i) (by rfl) hw) hsh (ctl_of_laid (laidMetH.of_heap (w' := w.forCall tape i) (by rfl) hX))).mono fun e W' ⟨v, he, hp⟩ => ?_
  subst he
  exact ChangeSpec.post_blind hp
end Go.Proofs.YtofiaodpjpjedaaGreatDoor
