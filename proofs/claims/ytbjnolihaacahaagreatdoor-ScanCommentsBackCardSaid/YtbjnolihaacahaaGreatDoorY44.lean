/-
  Document type declarations.
-/
import Derived.Test.YtbjnolihaacahaaGreatDoorY42
import Derived.Test.YtbjnolihaacahaaGreatDoorY40
namespace Go.Proofs.YtbjnolihaacahaaGreatDoor
open Go.RowKit Go.Shelf Go.Lib
set_option maxHeartbeats 4000000
set_option maxRecDepth 100000

theorem sk_sk (u : List UInt8) : sk (sk u) = sk u := by
  unfold sk
  rcases runN_drop (fun b => !spU b) u with h | ⟨b, t, h, hb⟩
  · rw [h]; rfl
  · rw [h, runN_yes _ hb]; rfl
def dT (d : Dt) : DocT := { name := d.name.data.toList, hasName := d.hn, pub := d.pub.data.toList, hasPub := d.hp, sys := d.sys.data.toList, hasSys := d.hs, quirks := d.qk }
def idG (k : DocT → List UInt8 → DocT × List UInt8) (T : DocT) (u : List UInt8) : DocT × List UInt8 := match u with | [] => (T.q, []) | c :: r => if c = 62 then (T.q, r) else k T (c :: r)
def dGs (st : Nat) (qb : UInt8) (T : DocT) (u : List UInt8) : DocT × List UInt8 :=
  match st with
  | 0 => kBeforeName T u
  | 1 => kBeforeName T u
  | 2 => kInName T u
  | 3 => kAfterName T u
  | 4 => kBeforePublic T u
  | 5 => kBeforePublic T u
  | 6 => idG (kInPublic qb) T u
  | 7 => kBeforeSystem false T u
  | 8 => kBeforeSystem false T u
  | 9 => kBeforeSystem true T u
  | 10 => kBeforeSystem true T u
  | 11 => idG (kInSystem qb) T u
  | 12 => kAfterSystem T u
  | _ => kBogus T u
theorem dGs0 (qb : UInt8) (T : DocT) (u : List UInt8) : dGs 0 qb T u = kBeforeName T u := rfl
theorem dGs1 (qb : UInt8) (T : DocT) (u : List UInt8) : dGs 1 qb T u = kBeforeName T u := rfl
theorem dGs2 (qb : UInt8) (T : DocT) (u : List UInt8) : dGs 2 qb T u = kInName T u := rfl
theorem dGs3 (qb : UInt8) (T : DocT) (u : List UInt8) : dGs 3 qb T u = kAfterName T u := rfl
theorem dGs4 (qb : UInt8) (T : DocT) (u : List UInt8) : dGs 4 qb T u = kBeforePublic T u := rfl
theorem dGs5 (qb : UInt8) (T : DocT) (u : List UInt8) : dGs 5 qb T u = kBeforePublic T u := rfl
theorem dGs6 (qb : UInt8) (T : DocT) (u : List UInt8) : dGs 6 qb T u = idG (kInPublic qb) T u := rfl
theorem dGs7 (qb : UInt8) (T : DocT) (u : List UInt8) : dGs 7 qb T u = kBeforeSystem false T u := rfl
theorem dGs8 (qb : UInt8) (T : DocT) (u : List UInt8) : dGs 8 qb T u = kBeforeSystem false T u := rfl
theorem dGs9 (qb : UInt8) (T : DocT) (u : List UInt8) : dGs 9 qb T u = kBeforeSystem true T u := rfl
theorem dGs10 (qb : UInt8) (T : DocT) (u : List UInt8) : dGs 10 qb T u = kBeforeSystem true T u := rfl
theorem dGs11 (qb : UInt8) (T : DocT) (u : List UInt8) : dGs 11 qb T u = idG (kInSystem qb) T u := rfl
theorem dGs12 (qb : UInt8) (T : DocT) (u : List UInt8) : dGs 12 qb T u = kAfterSystem T u := rfl
theorem dGs13 (qb : UInt8) (T : DocT) (u : List UInt8) : dGs 13 qb T u = kBogus T u := rfl
def dG (d : Dt) (u : List UInt8) : DocT × List UInt8 := dGs d.st (d.q.data.toList.headD 0) (dT d) u
structure DInv (d : Dt) : Prop where
  st : d.st ≤ 13
  q : d.st = 6 ∨ d.st = 11 → ∃ c, d.q.data.toList = [c] ∧ quU c = true
  pub : d.st ≤ 5 → d.pub = ⟨#[]⟩
  sys : d.st ≤ 10 → d.sys = ⟨#[]⟩
  name : d.st ≤ 2 → d.name = ⟨#[]⟩
  hn : d.st = 2 → d.hn = true
def dRk : Nat → Nat
  | 13 => 0
  | 0 => 4
  | 1 => 4
  | 2 => 3
  | _ => 2

theorem kbn_sk (T : DocT) (u : List UInt8) : kBeforeName T (sk u) = kBeforeName T u := by unfold kBeforeName; rw [sk_sk]
theorem kan_sk (T : DocT) (u : List UInt8) : kAfterName T (sk u) = kAfterName T u := by unfold kAfterName; rw [sk_sk]
theorem kbp_sk (T : DocT) (u : List UInt8) : kBeforePublic T (sk u) = kBeforePublic T u := by unfold kBeforePublic; rw [sk_sk]
theorem kbs_sk (g : Bool) (T : DocT) (u : List UInt8) : kBeforeSystem g T (sk u) = kBeforeSystem g T u := by unfold kBeforeSystem; rw [sk_sk]
theorem kas_sk (T : DocT) (u : List UInt8) : kAfterSystem T (sk u) = kAfterSystem T u := by unfold kAfterSystem; rw [sk_sk]

/-- The end of the string, and a ">". -/
theorem sk_62 (r : List UInt8) : sk (62 :: r) = 62 :: r := by unfold sk; rw [runN_yes _ (by decide)]; rfl
theorem up_62 (r : List UInt8) : upTo62 (62 :: r) = r := by unfold upTo62; rw [runN_yes _ (by decide)]; rfl
theorem bl_nil {d : ByteArray} (h : d = ⟨#[]⟩) : d.data.toList = [] := by rw [h]
theorem dG_end (d : Dt) (h : DInv d) : dG d [] = (dT { d with qk := d.qk || decide (d.st ≠ 13) }, []) := by
  obtain ⟨h1, h2, h3, h4, h5, h6⟩ := h
  obtain ⟨st, q, name, hn, pub, hp, sys, hs, qk⟩ := d
  simp only at *
  have hcase : st = 0 ∨ st = 1 ∨ st = 2 ∨ st = 3 ∨ st = 4 ∨ st = 5 ∨ st = 6 ∨ st = 7 ∨ st = 8 ∨ st = 9 ∨ st = 10 ∨ st = 11 ∨ st = 12 ∨ st = 13 := by omega
  rcases hcase with rfl | rfl | rfl | rfl | rfl | rfl | rfl | rfl | rfl | rfl | rfl | rfl | rfl | rfl
  case inr.inr.inl =>
    have e1 := h5 (by decide)
    have e2 := h6 rfl
    subst e1 e2
    cases qk <;> rfl
  all_goals (cases qk <;> rfl)
theorem dG_gt (d : Dt) (h : DInv d) (r : List UInt8) : dG d (62 :: r) = (dT { d with qk := d.qk || incB d.st }, r) := by
  obtain ⟨h1, h2, h3, h4, h5, h6⟩ := h
  obtain ⟨st, q, name, hn, pub, hp, sys, hs, qk⟩ := d
  simp only at *
  have hcase : st = 0 ∨ st = 1 ∨ st = 2 ∨ st = 3 ∨ st = 4 ∨ st = 5 ∨ st = 6 ∨ st = 7 ∨ st = 8 ∨ st = 9 ∨ st = 10 ∨ st = 11 ∨ st = 12 ∨ st = 13 := by omega
  unfold dG
  rcases hcase with rfl | rfl | rfl | rfl | rfl | rfl | rfl | rfl | rfl | rfl | rfl | rfl | rfl | rfl
  · show dGs 0 _ _ _ = _; rw [dGs0]; unfold kBeforeName; rw [sk_62]; cases qk <;> rfl
  · show dGs 1 _ _ _ = _; rw [dGs1]; unfold kBeforeName; rw [sk_62]; cases qk <;> rfl
  · have e1 := h5 (by decide)
    have e2 := h6 rfl
    subst e1 e2
    show dGs 2 _ _ _ = _
    rw [dGs2]
    unfold kInName
    rw [runN_yes _ (by decide)]
    simp only [List.take_zero, List.drop_zero]
    unfold kAfterName; rw [sk_62]; cases qk <;> rfl
  · show dGs 3 _ _ _ = _; rw [dGs3]; unfold kAfterName; rw [sk_62]; cases qk <;> rfl
  · show dGs 4 _ _ _ = _; rw [dGs4]; unfold kBeforePublic; rw [sk_62]; cases qk <;> rfl
  · show dGs 5 _ _ _ = _; rw [dGs5]; unfold kBeforePublic; rw [sk_62]; cases qk <;> rfl
  · cases qk <;> rfl
  · show dGs 7 _ _ _ = _; rw [dGs7]; unfold kBeforeSystem; rw [sk_62]; cases qk <;> rfl
  · show dGs 8 _ _ _ = _; rw [dGs8]; unfold kBeforeSystem; rw [sk_62]; cases qk <;> rfl
  · show dGs 9 _ _ _ = _; rw [dGs9]; unfold kBeforeSystem; rw [sk_62]; cases qk <;> rfl
  · show dGs 10 _ _ _ = _; rw [dGs10]; unfold kBeforeSystem; rw [sk_62]; cases qk <;> rfl
  · cases qk <;> rfl
  · show dGs 12 _ _ _ = _; rw [dGs12]; unfold kAfterSystem; rw [sk_62, if_neg (by simp)]; unfold kBogus; rw [up_62]; cases qk <;> rfl
  · show dGs 13 _ _ _ = _; rw [dGs13]; unfold kBogus; rw [up_62]; cases qk <;> rfl

/-- An identifier that was opened. -/
theorem id_open_p {c : UInt8} {T : DocT} (hc : quU c = true) (hp : T.pub = []) (r : List UInt8) : idG (kInPublic c) T r = kInPublic c T r := by
  have n62 : (62 : UInt8) ≠ c := by rintro rfl; cases hc
  cases r with
  | nil => unfold idG kInPublic; simp only [List.drop_nil, List.take_nil, nulL_nil, DocT.q]; rw [← hp]
  | cons x t =>
    unfold idG
    simp only
    by_cases h : x = 62
    · subst h
      rw [if_pos rfl]
      unfold kInPublic
      rw [show idN c (62 :: t) = 0 from runN_yes _ (by simp)]
      simp only [List.drop_zero, List.take_zero, nulL_nil]
      rw [if_neg n62]
      simp only [DocT.q]
      rw [← hp]
    · rw [if_neg h]
theorem id_open_s {c : UInt8} {T : DocT} (hc : quU c = true) (hp : T.sys = []) (r : List UInt8) : idG (kInSystem c) T r = kInSystem c T r := by
  have n62 : (62 : UInt8) ≠ c := by rintro rfl; cases hc
  cases r with
  | nil => unfold idG kInSystem; simp only [List.drop_nil, List.take_nil, nulL_nil, DocT.q]; rw [← hp]
  | cons x t =>
    unfold idG
    simp only
    by_cases h : x = 62
    · subst h
      rw [if_pos rfl]
      unfold kInSystem
      rw [show idN c (62 :: t) = 0 from runN_yes _ (by simp)]
      simp only [List.drop_zero, List.take_zero, nulL_nil]
      rw [if_neg n62]
      simp only [DocT.q]
      rw [← hp]
    · rw [if_neg h]
/-- Behind an identifier without its quote. -/
theorem id_rest {c : UInt8} {u : List UInt8} (h : [c].isPrefixOf (u.drop (idN c u)) = false) : u.drop (idN c u) = [] ∨ ∃ r, u.drop (idN c u) = 62 :: r := by
  rcases runN_drop (fun b => b == 62 || b == c) u with e | ⟨b, t, e, hb⟩
  · exact .inl e
  · right
    have e' : u.drop (idN c u) = b :: t := e
    rw [e'] at h ⊢
    simp at hb
    rcases hb with rfl | rfl
    · exact ⟨t, rfl⟩
    · simp [List.isPrefixOf] at h
theorem id_pos {c : UInt8} {u : List UInt8} (hu : u ≠ []) (h62 : [62].isPrefixOf u = false) (h : [c].isPrefixOf (u.drop (idN c u)) = false) : 0 < idN c u := by
  rcases Nat.eq_zero_or_pos (idN c u) with h0 | h0
  · exfalso
    rcases id_rest h with e | ⟨r, e⟩
    · rw [h0] at e; exact hu e
    · rw [h0] at e
      rw [show u = 62 :: r from e] at h62
      simp [List.isPrefixOf] at h62
  · exact h0

theorem ne62 {u : List UInt8} (h : [62].isPrefixOf u = false) : ∀ c r, u = c :: r → c ≠ 62 := by
  rintro c r rfl rfl
  simp [List.isPrefixOf] at h
theorem kan_public (T : DocT) {u : List UInt8} (hsk : u = sk u) (hu : u ≠ []) (h62 : [62].isPrefixOf u = false) (hl : lowL (u.take 6) = sPublic) : kAfterName T u = kBeforePublic T (u.drop 6) := by
  have hn := ne62 h62
  unfold kAfterName
  rw [← hsk]
  cases u with
  | nil => exact absurd rfl hu
  | cons c r => simp only; rw [if_neg (hn c r rfl), if_pos hl]
theorem kan_system (T : DocT) {u : List UInt8} (hsk : u = sk u) (hu : u ≠ []) (h62 : [62].isPrefixOf u = false) (h1 : lowL (u.take 6) ≠ sPublic) (hl : lowL (u.take 6) = sSystem) : kAfterName T u = kBeforeSystem true T (u.drop 6) := by
  have hn := ne62 h62
  unfold kAfterName
  rw [← hsk]
  cases u with
  | nil => exact absurd rfl hu
  | cons c r => simp only; rw [if_neg (hn c r rfl), if_neg h1, if_pos hl]
theorem kan_bogus (T : DocT) {u : List UInt8} (hsk : u = sk u) (hu : u ≠ []) (h62 : [62].isPrefixOf u = false) (h1 : lowL (u.take 6) ≠ sPublic) (hl : lowL (u.take 6) ≠ sSystem) : kAfterName T u = kBogus T.q u := by
  have hn := ne62 h62
  unfold kAfterName
  rw [← hsk]
  cases u with
  | nil => exact absurd rfl hu
  | cons c r => simp only; rw [if_neg (hn c r rfl), if_neg h1, if_neg hl]
theorem qu_ne62 {c : UInt8} (hc : quU c = true) : c ≠ 62 := by rintro rfl; cases hc
theorem kbp_open {s Q : ByteArray} {j : Nat} {c : UInt8} {d : Dt} (hsk : s.data.toList.drop j = sk (s.data.toList.drop j)) (hd : s.data.toList.drop j = c :: s.data.toList.drop (j + 1)) (hc : quU c = true) (hQ : Q.data.toList = [c]) (hp : d.pub.data.toList = []) :
    kBeforePublic (dT d) (s.data.toList.drop j) = dG (opened d false Q) (s.data.toList.drop (j + 1)) := by
  unfold kBeforePublic
  rw [← hsk, hd]
  simp only
  rw [if_neg (qu_ne62 hc), if_pos hc]
  show _ = dGs 6 (Q.data.toList.headD 0) _ _
  rw [hQ]
  exact (id_open_p hc hp _).symm
theorem kbs_open {g : Bool} {s Q : ByteArray} {j : Nat} {c : UInt8} {d : Dt} (hsk : s.data.toList.drop j = sk (s.data.toList.drop j)) (hd : s.data.toList.drop j = c :: s.data.toList.drop (j + 1)) (hc : quU c = true) (hQ : Q.data.toList = [c]) (hp : d.sys.data.toList = []) :
    kBeforeSystem g (dT d) (s.data.toList.drop j) = dG (opened d true Q) (s.data.toList.drop (j + 1)) := by
  unfold kBeforeSystem
  rw [← hsk, hd]
  simp only
  rw [if_neg (qu_ne62 hc), if_pos hc]
  show _ = dGs 11 (Q.data.toList.headD 0) _ _
  rw [hQ]
  exact (id_open_s hc hp _).symm
theorem kbp_bogus {T : DocT} {u : List UInt8} (hsk : u = sk u) (hu : u ≠ []) (h62 : [62].isPrefixOf u = false) (hq : seesB (fun r => quB r) u = false) : kBeforePublic T u = kBogus T.q u := by
  have hn := ne62 h62
  unfold kBeforePublic
  rw [← hsk]
  cases u with
  | nil => exact absurd rfl hu
  | cons c r =>
    have : quU c = false := by rw [← q_qu]; exact hq
    simp only
    rw [if_neg (hn c r rfl), this, if_neg Bool.false_ne_true]
theorem kbs_bogus {g : Bool} {T : DocT} {u : List UInt8} (hsk : u = sk u) (hu : u ≠ []) (h62 : [62].isPrefixOf u = false) (hq : seesB (fun r => quB r) u = false) : kBeforeSystem g T u = kBogus T.q u := by
  have hn := ne62 h62
  unfold kBeforeSystem
  rw [← hsk]
  cases u with
  | nil => exact absurd rfl hu
  | cons c r =>
    have : quU c = false := by rw [← q_qu]; exact hq
    simp only
    rw [if_neg (hn c r rfl), this, if_neg Bool.false_ne_true]
theorem idG_go {k : DocT → List UInt8 → DocT × List UInt8} {T : DocT} {u : List UInt8} (hu : u ≠ []) (h62 : [62].isPrefixOf u = false) : idG k T u = k T u := by
  have hn := ne62 h62
  cases u with
  | nil => exact absurd rfl hu
  | cons c r => unfold idG; simp only; rw [if_neg (hn c r rfl)]
theorem idp_took {s V q name pub sys : ByteArray} {hn hp hs qk : Bool} {j : Nat} {c : UInt8} (hu : s.data.toList.drop j ≠ []) (h62 : [62].isPrefixOf (s.data.toList.drop j) = false) (hp2 : [c].isPrefixOf (s.data.toList.drop (j + idN c (s.data.toList.drop j))) = true)
    (hQ : q.data.toList = [c]) (hV : V.data.toList = nulL ((s.data.toList.drop j).take (idN c (s.data.toList.drop j)))) :
    dG ⟨6, q, name, hn, pub, hp, sys, hs, qk⟩ (s.data.toList.drop j) = dG ⟨7, q, name, hn, V, hp, sys, hs, qk⟩ (s.data.toList.drop (j + idN c (s.data.toList.drop j) + 1)) := by
  show idG (kInPublic (q.data.toList.headD 0)) _ _ = kBeforeSystem false _ _
  rw [hQ, idG_go hu h62]
  show kInPublic c _ _ = _
  have hd := pre_1 hp2
  rw [← List.drop_drop] at hd
  unfold kInPublic
  rw [hd]
  simp only [if_true]
  rw [← hV]
  rfl
theorem ids_took {s V q name pub sys : ByteArray} {hn hp hs qk : Bool} {j : Nat} {c : UInt8} (hu : s.data.toList.drop j ≠ []) (h62 : [62].isPrefixOf (s.data.toList.drop j) = false) (hp2 : [c].isPrefixOf (s.data.toList.drop (j + idN c (s.data.toList.drop j))) = true)
    (hQ : q.data.toList = [c]) (hV : V.data.toList = nulL ((s.data.toList.drop j).take (idN c (s.data.toList.drop j)))) :
    dG ⟨11, q, name, hn, pub, hp, sys, hs, qk⟩ (s.data.toList.drop j) = dG ⟨12, q, name, hn, pub, hp, V, hs, qk⟩ (s.data.toList.drop (j + idN c (s.data.toList.drop j) + 1)) := by
  show idG (kInSystem (q.data.toList.headD 0)) _ _ = kAfterSystem _ _
  rw [hQ, idG_go hu h62]
  show kInSystem c _ _ = _
  have hd := pre_1 hp2
  rw [← List.drop_drop] at hd
  unfold kInSystem
  rw [hd]
  simp only [if_true]
  rw [← hV]
  rfl
theorem idp_rest {s V q name pub sys : ByteArray} {hn hp hs qk : Bool} {j : Nat} {c : UInt8} (hu : s.data.toList.drop j ≠ []) (h62 : [62].isPrefixOf (s.data.toList.drop j) = false) (hp2 : [c].isPrefixOf (s.data.toList.drop (j + idN c (s.data.toList.drop j))) = false)
    (hQ : q.data.toList = [c]) (hV : V.data.toList = nulL ((s.data.toList.drop j).take (idN c (s.data.toList.drop j)))) :
    dG ⟨6, q, name, hn, pub, hp, sys, hs, qk⟩ (s.data.toList.drop j) = dG ⟨6, q, name, hn, V, hp, sys, hs, qk⟩ (s.data.toList.drop (j + idN c (s.data.toList.drop j))) := by
  show idG (kInPublic (q.data.toList.headD 0)) _ _ = idG (kInPublic (q.data.toList.headD 0)) _ _
  rw [idG_go hu h62, hQ]
  show kInPublic c _ _ = idG (kInPublic c) _ _
  rw [← List.drop_drop] at hp2 ⊢
  unfold kInPublic
  rcases id_rest hp2 with e | ⟨r, e⟩
  · rw [e, ← hV]; rfl
  · rw [e] at hp2 ⊢
    simp only
    rw [if_neg (by rintro rfl; simp [List.isPrefixOf] at hp2), ← hV]
    rfl
theorem ids_rest {s V q name pub sys : ByteArray} {hn hp hs qk : Bool} {j : Nat} {c : UInt8} (hu : s.data.toList.drop j ≠ []) (h62 : [62].isPrefixOf (s.data.toList.drop j) = false) (hp2 : [c].isPrefixOf (s.data.toList.drop (j + idN c (s.data.toList.drop j))) = false)
    (hQ : q.data.toList = [c]) (hV : V.data.toList = nulL ((s.data.toList.drop j).take (idN c (s.data.toList.drop j)))) :
    dG ⟨11, q, name, hn, pub, hp, sys, hs, qk⟩ (s.data.toList.drop j) = dG ⟨11, q, name, hn, pub, hp, V, hs, qk⟩ (s.data.toList.drop (j + idN c (s.data.toList.drop j))) := by
  show idG (kInSystem (q.data.toList.headD 0)) _ _ = idG (kInSystem (q.data.toList.headD 0)) _ _
  rw [idG_go hu h62, hQ]
  show kInSystem c _ _ = idG (kInSystem c) _ _
  rw [← List.drop_drop] at hp2 ⊢
  unfold kInSystem
  rcases id_rest hp2 with e | ⟨r, e⟩
  · rw [e, ← hV]; rfl
  · rw [e] at hp2 ⊢
    simp only
    rw [if_neg (by rintro rfl; simp [List.isPrefixOf] at hp2), ← hV]
    rfl
theorem up_run (u : List UInt8) : upTo62 (u.drop (runN (fun b => b == 62) u)) = upTo62 u := by
  unfold upTo62
  rcases runN_drop (fun b => b == 62) u with e | ⟨b, t, e, hb⟩
  · rw [e]; rfl
  · rw [e, runN_yes (q := fun b => b == 62) _ hb]; rfl

/-- What step does. -/
def StepP (b : Nat) (s : ByteArray) (j : Nat) (d : Dt) (w : World) (e : Ending) (w' : World) : Prop :=
  e = .returned (.tuple #[]) ∧ But b w w' ∧ ∃ j' d', DAt w' b s j' d' ∧ DInv d' ∧ j ≤ j' ∧ j' ≤ s.size ∧ dG d' (s.data.toList.drop j') = dG d (s.data.toList.drop j) ∧ 20 * (s.size - j') + dRk d'.st < 20 * (s.size - j) + dRk d.st

theorem q_gt : (qOf fun r => gtB r) = fun b => b == 62 := by
  funext b
  show decide ((b.toNat : Int) = 62) = _
  rw [Bool.eq_iff_iff]; simp [← UInt8.toNat_inj]; omega
end Go.Proofs.YtbjnolihaacahaaGreatDoor
