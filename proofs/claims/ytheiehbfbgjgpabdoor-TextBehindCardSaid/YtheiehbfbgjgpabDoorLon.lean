/-
  Longest.
-/
import Derived.Test.YtheiehbfbgjgpabDoorNmd
import Derived.Deep.RegionHeld3
import Derived.Deep.DeepCutAuto
namespace Go.Proofs.YtheiehbfbgjgpabDoor
open Go.RowKit
set_option maxHeartbeats 1000000
set_option maxRecDepth 100000

/-- What Longest answers. -/
def LgP (s : List UInt8) (n : Int) (V : ByteArray) : Prop :=
  (n = 0 ∧ V = ⟨#[]⟩ ∧ ∀ e ∈ ENT, ¬ nameOf e <+: s) ∨
  ∃ e ∈ ENT, nameOf e <+: s ∧ n = (nameOf e).length ∧ V.data.toList = valL (codesOf e) ∧ ∀ e' ∈ ENT, nameOf e' <+: s → (nameOf e').length ≤ (nameOf e).length

theorem ltB_app : ∀ p x y : List UInt8, ltB (p ++ x) (p ++ y) = ltB x y
  | [], _, _ => rfl
  | a :: p, x, y => by
    have := ltB_app p x y
    simp only [ltB] at this ⊢
    simp [Op.bytesLess, this]
theorem ltB_nil (a : UInt8) (x : List UInt8) : ltB [] (a :: x) = true := rfl
theorem ltB_cons_nil (a : UInt8) (x : List UInt8) : ltB (a :: x) [] = false := rfl
theorem ltB_head {a b : UInt8} (h : a ≠ b) (x y : List UInt8) : ltB (a :: x) (b :: y) = decide (a < b) := by simp [ltB, Op.bytesLess, h]
theorem leB_prefix {p l : List UInt8} (h : p <+: l) : leB p l = true := by
  obtain ⟨r, rfl⟩ := h
  cases r with
  | nil => simp [leB]
  | cons a r =>
    have := ltB_app p [] (a :: r)
    rw [List.append_nil] at this
    simp [leB, show Op.bytesLess p (p ++ a :: r) = true from this]
theorem prefix_len {p q l : List UInt8} (h : p <+: l) (h2 : q <+: l) (hl : leB p q = true) : p.length ≤ q.length := by
  rcases Nat.lt_or_ge q.length p.length with hlt | hge
  · exfalso
    have hqp : q <+: p := List.prefix_of_prefix_length_le h2 h (by omega)
    have e := leB_antisymm _ _ (leB_prefix hqp) hl
    rw [e] at hlt
    omega
  · exact hge

theorem split_at (l : List UInt8) (i : Nat) (h : i < l.length) : l = l.take i ++ l[i] :: l.drop (i + 1) := by
  rw [← List.drop_eq_getElem_cons h, List.take_append_drop]

/-- Where a name that is not greater has all bytes so far, the string has the next one. -/
theorem has_next {A l : List UInt8} {i : Nat} (h : A.take i = l.take i) (hi : i < A.length) (hl : leB A l = true) : i < l.length := by
  rcases Nat.lt_or_ge i l.length with h' | h'
  · exact h'
  · exfalso
    have e : l = A.take i := by rw [h]; exact (List.take_of_length_le h').symm
    have h2 : l <+: A := by rw [e]; exact List.take_prefix _ _
    have := leB_antisymm _ _ (leB_prefix h2) hl
    rw [this] at h'
    omega

/-- Where they differ, no name that the string begins with goes further. -/
theorem no_longer {A l p : List UInt8} {i : Nat} (h : A.take i = l.take i) (hi : i < A.length) (hl : i < l.length) (hne : A[i] ≠ l[i]) (hA : leB A l = true) (hp : p <+: l) (hpA : leB p A = true) : p.length ≤ i := by
  rcases Nat.lt_or_ge i p.length with hlt | hge
  · exfalso
    have eA := split_at A i hi
    have el := split_at l i hl
    have ep := split_at p i hlt
    obtain ⟨r, hr⟩ := hp
    have hpi : p[i] = l[i] := by
      have : l[i]? = p[i]? := by rw [← hr, List.getElem?_append_left hlt]
      rw [List.getElem?_eq_getElem hl, List.getElem?_eq_getElem hlt] at this
      simpa using this.symm
    have hpt : p.take i = l.take i := by rw [← hr, List.take_append_of_le_length (by omega)]
    have hAl : ltB A l = true := by
      simp only [leB, Bool.or_eq_true, beq_iff_eq] at hA
      rcases hA with hA | hA
      · exact hA
      · exfalso
        apply hne
        simp [hA]
    have hlt2 : A[i] < l[i] := by
      rw [eA, el, h, ltB_app, ltB_head hne] at hAl
      simpa using hAl
    have hAp : ltB A p = true := by
      rw [eA, ep, h, hpt, ltB_app, hpi, ltB_head hne]
      simpa using hlt2
    have := ltB_asymm _ _ hAp
    have h5 := (leB_not p A).mpr hAp
    rw [hpA] at h5
    simp at h5
  · exact hge

def szOf : Value → Nat
  | .string r => r.size
  | _ => 0

/-- What holds ahead of each search. -/
structure Lims (s l : List UInt8) : Prop where
  pre : l <+: s
  all : ∀ e ∈ ENT, nameOf e <+: s → nameOf e <+: l
theorem lims_no {s l : List UInt8} {A B : ByteArray} (h : Lims s l) (hU : UpTo l A B false) : LgP s 0 ⟨#[]⟩ := by
  refine .inl ⟨rfl, rfl, fun e he hp => ?_⟩
  have h1 := leB_prefix (h.all e he hp)
  have h2 := (leB_not _ _).mpr (hU.no rfl e he)
  rw [h1] at h2
  simp at h2
theorem lims_yes {s l : List UInt8} {A B V : ByteArray} (h : Lims s l) (hU : UpTo l A B true) (hA : A.data.toList.take A.size = l.take A.size) (hV : V.data.toList = valL B.data.toList) : LgP s A.size V := by
  obtain ⟨e, he, h1, h2, h3, h4⟩ := hU.yes rfl
  have hz : A.data.toList.length = A.size := size_list A
  rw [List.take_of_length_le (by omega)] at hA
  have hpl : nameOf e <+: l := by rw [← h1, hA]; exact List.take_prefix _ _
  refine .inr ⟨e, he, hpl.trans h.pre, by rw [← h1, hz], by rw [hV, h2], ?_⟩
  intro e' he' hp'
  have hp2 := h.all e' he' hp'
  exact prefix_len hp2 hpl (h4 e' he' (leB_prefix hp2))
theorem lims_next {s l : List UInt8} {A B : ByteArray} {i : Nat} (h : Lims s l) (hU : UpTo l A B true) (hA : A.data.toList.take i = l.take i) (hi : i < A.data.toList.length) (hil : i < l.length) (hne : A.data.toList[i] ≠ l[i]) : Lims s (l.take i) := by
  obtain ⟨e, he, h1, h2, h3, h4⟩ := hU.yes rfl
  refine ⟨(List.take_prefix _ _).trans h.pre, ?_⟩
  intro e' he' hp'
  have hp2 := h.all e' he' hp'
  have h5 := h4 e' he' (leB_prefix hp2)
  rw [← h1] at h5 h3
  have := no_longer hA hi hil hne h3 hp2 h5
  exact List.prefix_take_iff.mpr ⟨hp2, this⟩
theorem lims_has {l : List UInt8} {A B : ByteArray} {i : Nat} (hU : UpTo l A B true) (hA : A.data.toList.take i = l.take i) (hi : i < A.data.toList.length) : i < l.length := by
  obtain ⟨e, he, h1, h2, h3, h4⟩ := hU.yes rfl
  rw [← h1] at h3
  exact has_next hA hi h3

theorem longest (s : ByteArray) (m : Int) (w : World) (hm : w.cell? ⟨1, 0, none⟩ = some (.int .i64 m)) :
    Calls Tryd.prog 18 #[.string s] w fun e w' => ∃ (n : Int) (V : ByteArray), e = .returned (.tuple #[.int .i64 n, .string V]) ∧ LgP s.data.toList n V ∧ Below w.heap.size w w' := by
  go_enter Tryd.func18, Tryd.ntmps18
  go_wp2_with fail
  go_step3
  go_wp2
  go_step3
  go_wp2
  have HM := Lib.hid hm
  clear hm
  go_loopw [4] (fun v wr => ∃ l : ByteArray, v = .string l ∧ Lims s.data.toList l.data.toList ∧ l.size ≤ s.size ∧ Below w.heap.size w wr) (fun v _ => szOf v)
  case atStart => exact ⟨s, rfl, ⟨List.prefix_rfl, fun _ _ h => h⟩, Nat.le_refl _, Below.refl _ _⟩
  case round =>
    obtain ⟨l, rfl, hL, hls, hB⟩ := hrel
    have HL := Lib.hid hL
    clear hL
    have HC := Lib.hid (lup l m wr (carry HM.out hB))
    go_wp2_with fail
    refine HC.out.mono ?_
    rintro e w1 ⟨A, B, F, rfl, hU, hb1⟩
    have HU := Lib.hid hU
    have hB1 := below_next hB hb1
    clear hU hb1
    cases F with
    | false =>
      go_wp2_with fail
      simp only [Exit.noGoto_ret]
      refine bodyPost_ret (v := .tuple #[.int .i64 0, .string ⟨#[]⟩]) (by simp [results, Tryd.results18, go_sem]) rfl ⟨_, _, rfl, lims_no HL.out HU.out, by (repeat' (first | (with_reducible exact Below.refl _ _) | (with_reducible assumption) | (with_reducible refine below_alloc ?_ _) | (with_reducible refine Below.drew ?_) | (with_reducible refine below_drewN ?_ _) | (with_reducible refine Below.setCell ?_ ?_ _) | go_size | (refine below_next ?_ (by assumption))))⟩
    | true =>
      obtain ⟨z1, z2⟩ := upTo_size HU.out
      go_wp2_with fail
      have k0 : (w1.alloc (.cells #[.string A, .string B] 63)).cell? ⟨w1.heap.size, 0, none⟩ = some (.string A) := World.cell?_alloc_at _ _ _ _ rfl
      have k1 : (w1.alloc (.cells #[.string A, .string B] 63)).cell? ⟨w1.heap.size, 1, none⟩ = some (.string B) := World.cell?_alloc_at _ _ _ _ rfl
      have hlt : w1.heap.size < (w1.alloc (.cells #[.string A, .string B] 63)).heap.size := by simp
      have hB2 : Below w.heap.size w (w1.alloc (.cells #[.string A, .string B] 63)) := below_alloc hB1 _
      generalize w1.alloc (.cells #[.string A, .string B] 63) = w2 at k0 k1 hlt hB2 ⊢
      generalize w1.heap.size = Bx at k0 k1 hlt ⊢
      clear HC hB hB1
      have hA0 : A.data.toList.length = A.size := size_list A
      have hl0 : l.data.toList.length = l.size := size_list l
      have HA0 := Lib.hid hA0
      have HL0 := Lib.hid hl0
      clear hA0 hl0
      go_loopw [4, 19] (fun v4 v wq => ∃ i : Nat, v4 = .string l ∧ v = .int .i64 i ∧ i ≤ A.size ∧ A.data.toList.take i = l.data.toList.take i ∧ wq.cell? ⟨Bx, 0, none⟩ = some (.string A) ∧ wq.cell? ⟨Bx, 1, none⟩ = some (.string B) ∧ Bx < wq.heap.size ∧ Below w.heap.size w wq) (fun _ v _ => A.size - (intOf v).toNat)
      case atStart => exact ⟨0, rfl, rfl, Nat.zero_le _, by simp, k0, k1, hlt, hB2⟩
      case round =>
        obtain ⟨i, rfl, rfl, hi, ht, g0, g1, hlq, hBq⟩ := hrel
        have HT := Lib.hid ht
        clear ht k0 k1 hlt hB2
        by_cases hlt : i < A.size
        · have hil : i < l.size := by
            have := lims_has HU.out HT.out (by rw [HA0.out]; exact hlt)
            rwa [HL0.out] at this
          have hI1 : (i : Int) < (A.size : Int) := by omega
          have hI2 : (i : Int) < (l.size : Int) := by omega
          by_cases heq : A[i] = l[i]
          · have hq : (((A[i]'hlt).toNat : Int) == ((l[i]'hil).toNat : Int)) = true := by rw [heq]; simp
            have HEQ := Lib.hid heq
            clear heq
            go_wp2_with fail
            go_quiet (fail)
            have g0' : (wr.drewN nq).cell? ⟨Bx, 0, none⟩ = some (.string A) := by simpa [go_sem] using g0
            have g1' : (wr.drewN nq).cell? ⟨Bx, 1, none⟩ = some (.string B) := by simpa [go_sem] using g1
            have hlq' : Bx < (wr.drewN nq).heap.size := by simpa using hlq
            have hB' : Below w.heap.size w (wr.drewN nq) := below_drewN hBq nq
            clear g0 g1 hlq hBq
            generalize wr.drewN nq = w4 at g0' g1' hlq' hB' ⊢
            have hq2 : (((A[i]'hlt).toNat : Int) != ((l[i]'hil).toNat : Int)) = false := by simp only [bne, hq]; rfl
            go_wp2_with fail
            refine ⟨⟨i + 1, rfl, by go_num, by omega, ?_, g0', g1', hlq', hB'⟩, by simp [intOf]; omega⟩
            rw [take_snoc A i hlt, take_snoc l i hil, HT.out, HEQ.out]
          · have hq : (((A[i]'hlt).toNat : Int) == ((l[i]'hil).toNat : Int)) = false := by
              simp
              intro h
              exact heq (UInt8.toNat_inj.mp (by omega))
            have HEQ := Lib.hid heq
            clear heq
            go_wp2_with fail
            go_quiet (fail)
            have hlq' : Bx < (wr.drewN nq).heap.size := by simpa using hlq
            have hB' : Below w.heap.size w (wr.drewN nq) := below_drewN hBq nq
            clear g0 g1 hlq hBq
            generalize wr.drewN nq = w4 at hlq' hB' ⊢
            have hq2 : (((A[i]'hlt).toNat : Int) != ((l[i]'hil).toNat : Int)) = true := by simp only [bne, hq]; rfl
            go_wp2_with fail
            have e1 : (l.extract 0 i).data.toList = l.data.toList.take i := by rw [Lib.extract_data]; simp
            have hi3 : i < A.data.toList.length := by rw [HA0.out]; exact hlt
            have hi4 : i < l.data.toList.length := by rw [HL0.out]; exact hil
            have hne : A.data.toList[i] ≠ l.data.toList[i] := HEQ.out
            refine ⟨⟨l.extract 0 i, rfl, by rw [e1]; exact lims_next HL.out HU.out HT.out hi3 hi4 hne, ?_, hB'⟩, ?_⟩
            · rw [ByteArray.size_extract]; omega
            · simp [szOf, ByteArray.size_extract]; omega
        · have HV : Hid (∀ w', (w'.cell? ⟨Bx, 0, none⟩ = some (.string A) ∧ w'.cell? ⟨Bx, 1, none⟩ = some (.string B) ∧ Bx < w'.heap.size ∧ Below w.heap.size w w') →
              Calls Tryd.prog 44 #[.agg #[.string A, .string B]] w' fun e w3 => ∃ V : ByteArray, e = .returned (.string V) ∧ Hid (V.data.toList = valL B.data.toList) ∧ w3.cell? ⟨Bx, 0, none⟩ = some (.string A) ∧ w3.cell? ⟨Bx, 1, none⟩ = some (.string B) ∧ Bx < w3.heap.size ∧ Below w.heap.size w w3) := by
            refine Lib.hid ?_
            rintro w' ⟨y0, y1, y2, y3⟩
            refine (value A B (by omega) w').mono ?_
            rintro e w3 ⟨V, rfl, hV, hb⟩
            exact ⟨V, rfl, Lib.hid hV, (hb.cell (p := ⟨Bx, 0, none⟩) y2).trans y0, (hb.cell (p := ⟨Bx, 1, none⟩) y2).trans y1, Nat.lt_of_lt_of_le y2 hb.size, below_next y3 hb⟩
          go_wp2_with fail
          go_region_held3 (fun w' => w'.cell? ⟨Bx, 0, none⟩ = some (.string A) ∧ w'.cell? ⟨Bx, 1, none⟩ = some (.string B) ∧ Bx < w'.heap.size ∧ Below w.heap.size w w') (first | exact ⟨g0, g1, hlq, Below.drew hBq⟩ | exact ⟨by assumption, by assumption, by assumption, by assumption⟩ | go_keep)
            (first | (go_at_call 44; refine (HV.out _ ⟨by assumption, by assumption, by assumption, by first | assumption | exact Below.drew (by assumption)⟩).mono ?_; rintro e w3 ⟨V, rfl, hV, c0, c1, c2, c3⟩))
          all_goals
            go_wp2_with fail
            simp only [Exit.noGoto_ret]
            refine bodyPost_ret (v := .tuple #[.int .i64 A.size, .string V]) (by simp [results, Tryd.results18, go_sem]) rfl ⟨_, _, rfl, lims_yes HL.out HU.out ?_ hV.out, c3⟩
            have := HT.out
            rwa [show i = A.size by omega] at this
end Go.Proofs.YtheiehbfbgjgpabDoor
