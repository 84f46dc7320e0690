/-
  Longest.
  The examples' rows: what the table says of four strings.
  Input, and the rows of the examples that each statement checks.
  The document's own classes of bytes.
  CodePoint, the program's and the document's.
-/
import Derived.Test.YtnfccckodgknjaaGreatDoorY20
import Derived.Deep.RegionHeld3
import Derived.Deep.DeepCutAuto
import Derived.Test.YtnfccckodgknjaaGreatDoorY15
import Derived.Test.YtnfccckodgknjaaGreatDoorY07
import Derived.Test.YtnfccckodgknjaaGreatDoorY11
import Derived.Test.YtnfccckodgknjaaGreatDoorY01
namespace Go.Proofs.YtnfccckodgknjaaGreatDoor
open Go.RowKit
set_option maxHeartbeats 1000000
set_option maxRecDepth 100000

/-- What Longest answers. -/
def LgP (s : List UInt8) (n : Int) (V : ByteArray) : Prop :=
  (n = 0 ∧ V = ⟨#[]⟩ ∧ ∀ e ∈ ENT, ¬ nameOf e <+: s) ∨
  ∃ e ∈ ENT, nameOf e <+: s ∧ n = (nameOf e).length ∧ V.data.toList = valL (codesOf e) ∧ ∀ e' ∈ ENT, nameOf e' <+: s → (nameOf e').length ≤ (nameOf e).length

theorem ltB_app : ∀ p x y : List UInt8, ltB (p ++ x) (p ++ y) = ltB x y
  | [], _, _ => rfl
  | a :: p, x, y => by
    have := ltB_app p x y
    simp only [ltB] at this ⊢
    simp [Op.bytesLess, this]
theorem ltB_nil (a : UInt8) (x : List UInt8) : ltB [] (a :: x) = true := rfl
theorem ltB_cons_nil (a : UInt8) (x : List UInt8) : ltB (a :: x) [] = false := rfl
theorem ltB_head {a b : UInt8} (h : a ≠ b) (x y : List UInt8) : ltB (a :: x) (b :: y) = decide (a < b) := by simp [ltB, Op.bytesLess, h]
theorem leB_prefix {p l : List UInt8} (h : p <+: l) : leB p l = true := by
  obtain ⟨r, rfl⟩ := h
  cases r with
  | nil => simp [leB]
  | cons a r =>
    have := ltB_app p [] (a :: r)
    rw [List.append_nil] at this
    simp [leB, show Op.bytesLess p (p ++ a :: r) = true from this]
theorem prefix_len {p q l : List UInt8} (h : p <+: l) (h2 : q <+: l) (hl : leB p q = true) : p.length ≤ q.length := by
  rcases Nat.lt_or_ge q.length p.length with hlt | hge
  · exfalso
    have hqp : q <+: p := List.prefix_of_prefix_length_le h2 h (by omega)
    have e := leB_antisymm _ _ (leB_prefix hqp) hl
    rw [e] at hlt
    omega
  · exact hge

theorem split_at (l : List UInt8) (i : Nat) (h : i < l.length) : l = l.take i ++ l[i] :: l.drop (i + 1) := by
  rw [← List.drop_eq_getElem_cons h, List.take_append_drop]

/-- Where a name that is not greater has all bytes so far, the string has the next one. -/
theorem has_next {A l : List UInt8} {i : Nat} (h : A.take i = l.take i) (hi : i < A.length) (hl : leB A l = true) : i < l.length := by
  rcases Nat.lt_or_ge i l.length with h' | h'
  · exact h'
  · exfalso
    have e : l = A.take i := by rw [h]; exact (List.take_of_length_le h').symm
    have h2 : l <+: A := by rw [e]; exact List.take_prefix _ _
    have := leB_antisymm _ _ (leB_prefix h2) hl
    rw [this] at h'
    omega

/-- Where they differ, no name that the string begins with goes further. -/
theorem no_longer {A l p : List UInt8} {i : Nat} (h : A.take i = l.take i) (hi : i < A.length) (hl : i < l.length) (hne : A[i] ≠ l[i]) (hA : leB A l = true) (hp : p <+: l) (hpA : leB p A = true) : p.length ≤ i := by
  rcases Nat.lt_or_ge i p.length with hlt | hge
  · exfalso
    have eA := split_at A i hi
    have el := split_at l i hl
    have ep := split_at p i hlt
    obtain ⟨r, hr⟩ := hp
    have hpi : p[i] = l[i] := by
      have : l[i]? = p[i]? := by rw [← hr, List.getElem?_append_left hlt]
      rw [List.getElem?_eq_getElem hl, List.getElem?_eq_getElem hlt] at this
      simpa using this.symm
    have hpt : p.take i = l.take i := by rw [← hr, List.take_append_of_le_length (by omega)]
    have hAl : ltB A l = true := by
      simp only [leB, Bool.or_eq_true, beq_iff_eq] at hA
      rcases hA with hA | hA
      · exact hA
      · exfalso
        apply hne
        simp [hA]
    have hlt2 : A[i] < l[i] := by
      rw [eA, el, h, ltB_app, ltB_head hne] at hAl
      simpa using hAl
    have hAp : ltB A p = true := by
      rw [eA, ep, h, hpt, ltB_app, hpi, ltB_head hne]
      simpa using hlt2
    have := ltB_asymm _ _ hAp
    have h5 := (leB_not p A).mpr hAp
    rw [hpA] at h5
    simp at h5
  · exact hge

def szOf : Value → Nat
  | .string r => r.size
  | _ => 0

/-- What holds ahead of each search. -/
structure Lims (s l : List UInt8) : Prop where
  pre : l <+: s
  all : ∀ e ∈ ENT, nameOf e <+: s → nameOf e <+: l
theorem lims_no {s l : List UInt8} {A B : ByteArray} (h : Lims s l) (hU : UpTo l A B false) : LgP s 0 ⟨#[]⟩ := by
  refine .inl ⟨rfl, rfl, fun e he hp => ?_⟩
  have h1 := leB_prefix (h.all e he hp)
  have h2 := (leB_not _ _).mpr (hU.no rfl e he)
  rw [h1] at h2
  simp at h2
theorem lims_yes {s l : List UInt8} {A B V : ByteArray} (h : Lims s l) (hU : UpTo l A B true) (hA : A.data.toList.take A.size = l.take A.size) (hV : V.data.toList = valL B.data.toList) : LgP s A.size V := by
  obtain ⟨e, he, h1, h2, h3, h4⟩ := hU.yes rfl
  have hz : A.data.toList.length = A.size := size_list A
  rw [List.take_of_length_le (by omega)] at hA
  have hpl : nameOf e <+: l := by rw [← h1, hA]; exact List.take_prefix _ _
  refine .inr ⟨e, he, hpl.trans h.pre, by rw [← h1, hz], by rw [hV, h2], ?_⟩
  intro e' he' hp'
  have hp2 := h.all e' he' hp'
  exact prefix_len hp2 hpl (h4 e' he' (leB_prefix hp2))
theorem lims_next {s l : List UInt8} {A B : ByteArray} {i : Nat} (h : Lims s l) (hU : UpTo l A B true) (hA : A.data.toList.take i = l.take i) (hi : i < A.data.toList.length) (hil : i < l.length) (hne : A.data.toList[i] ≠ l[i]) : Lims s (l.take i) := by
  obtain ⟨e, he, h1, h2, h3, h4⟩ := hU.yes rfl
  refine ⟨(List.take_prefix _ _).trans h.pre, ?_⟩
  intro e' he' hp'
  have hp2 := h.all e' he' hp'
  have h5 := h4 e' he' (leB_prefix hp2)
  rw [← h1] at h5 h3
  have := no_longer hA hi hil hne h3 hp2 h5
  exact List.prefix_take_iff.mpr ⟨hp2, this⟩
theorem lims_has {l : List UInt8} {A B : ByteArray} {i : Nat} (hU : UpTo l A B true) (hA : A.data.toList.take i = l.take i) (hi : i < A.data.toList.length) : i < l.length := by
  obtain ⟨e, he, h1, h2, h3, h4⟩ := hU.yes rfl
  rw [← h1] at h3
  exact has_next hA hi h3

theorem longest (s : ByteArray) (m : Int) (w : World) (hm : w.cell? ⟨1, 0, none⟩ = some (.int .i64 m)) :
    Calls Tryz.prog 171 #[.string s] w fun e w' => ∃ (n : Int) (V : ByteArray), e = .returned (.tuple #[.int .i64 n, .string V]) ∧ LgP s.data.toList n V ∧ Below w.heap.size w w' := by
  go_enter Tryz.func171, Tryz.ntmps171
  go_wp2_with fail
  go_step3
  go_wp2
  go_step3
  go_wp2
  have HM := Lib.hid hm
  clear hm
  go_loopw [4] (fun v wr => ∃ l : ByteArray, v = .string l ∧ Lims s.data.toList l.data.toList ∧ l.size ≤ s.size ∧ Below w.heap.size w wr) (fun v _ => szOf v)
  case atStart => exact ⟨s, rfl, ⟨List.prefix_rfl, fun _ _ h => h⟩, Nat.le_refl _, Below.refl _ _⟩
  case round =>
    obtain ⟨l, rfl, hL, hls, hB⟩ := hrel
    have HL := Lib.hid hL
    clear hL
    have HC := Lib.hid (lup l m wr (carry HM.out hB))
    go_wp2_with fail
    refine HC.out.mono ?_
    rintro e w1 ⟨A, B, F, rfl, hU, hb1⟩
    have HU := Lib.hid hU
    have hB1 := below_next hB hb1
    clear hU hb1
    cases F with
    | false =>
      go_wp2_with fail
      simp only [Exit.noGoto_ret]
      refine bodyPost_ret (v := .tuple #[.int .i64 0, .string ⟨#[]⟩]) (by simp [results, Tryz.results171, go_sem]) rfl ⟨_, _, rfl, lims_no HL.out HU.out, by (repeat' (first | (with_reducible exact Below.refl _ _) | (with_reducible assumption) | (with_reducible refine below_alloc ?_ _) | (with_reducible refine Below.drew ?_) | (with_reducible refine _root_.Go.below_drewN ?_ _) | (with_reducible refine Below.setCell ?_ ?_ _) | go_size | (refine below_next ?_ (by assumption))))⟩
    | true =>
      obtain ⟨z1, z2⟩ := upTo_size HU.out
      go_wp2_with fail
      have k0 : (w1.alloc (.cells #[.string A, .string B] 187)).cell? ⟨w1.heap.size, 0, none⟩ = some (.string A) := World.cell?_alloc_at _ _ _ _ rfl
      have k1 : (w1.alloc (.cells #[.string A, .string B] 187)).cell? ⟨w1.heap.size, 1, none⟩ = some (.string B) := World.cell?_alloc_at _ _ _ _ rfl
      have hlt : w1.heap.size < (w1.alloc (.cells #[.string A, .string B] 187)).heap.size := by simp
      have hB2 : Below w.heap.size w (w1.alloc (.cells #[.string A, .string B] 187)) := below_alloc hB1 _
      generalize w1.alloc (.cells #[.string A, .string B] 187) = w2 at k0 k1 hlt hB2 ⊢
      generalize w1.heap.size = Bx at k0 k1 hlt ⊢
      clear HC hB hB1
      have hA0 : A.data.toList.length = A.size := size_list A
      have hl0 : l.data.toList.length = l.size := size_list l
      have HA0 := Lib.hid hA0
      have HL0 := Lib.hid hl0
      clear hA0 hl0
      go_loopw [4, 19] (fun v4 v wq => ∃ i : Nat, v4 = .string l ∧ v = .int .i64 i ∧ i ≤ A.size ∧ A.data.toList.take i = l.data.toList.take i ∧ wq.cell? ⟨Bx, 0, none⟩ = some (.string A) ∧ wq.cell? ⟨Bx, 1, none⟩ = some (.string B) ∧ Bx < wq.heap.size ∧ Below w.heap.size w wq) (fun _ v _ => A.size - (intOf v).toNat)
      case atStart => exact ⟨0, rfl, rfl, Nat.zero_le _, by simp, k0, k1, hlt, hB2⟩
      case round =>
        obtain ⟨i, rfl, rfl, hi, ht, g0, g1, hlq, hBq⟩ := hrel
        have HT := Lib.hid ht
        clear ht k0 k1 hlt hB2
        by_cases hlt : i < A.size
        · have hil : i < l.size := by
            have := lims_has HU.out HT.out (by rw [HA0.out]; exact hlt)
            rwa [HL0.out] at this
          have hI1 : (i : Int) < (A.size : Int) := by omega
          have hI2 : (i : Int) < (l.size : Int) := by omega
          by_cases heq : A[i] = l[i]
          · have hq : (((A[i]'hlt).toNat : Int) == ((l[i]'hil).toNat : Int)) = true := by rw [heq]; simp
            have HEQ := Lib.hid heq
            clear heq
            go_wp2_with fail
            go_quiet (fail)
            have g0' : (wr.drewN nq).cell? ⟨Bx, 0, none⟩ = some (.string A) := by simpa [go_sem] using g0
            have g1' : (wr.drewN nq).cell? ⟨Bx, 1, none⟩ = some (.string B) := by simpa [go_sem] using g1
            have hlq' : Bx < (wr.drewN nq).heap.size := by simpa using hlq
            have hB' : Below w.heap.size w (wr.drewN nq) := _root_.Go.below_drewN hBq nq
            clear g0 g1 hlq hBq
            generalize wr.drewN nq = w4 at g0' g1' hlq' hB' ⊢
            have hq2 : (((A[i]'hlt).toNat : Int) != ((l[i]'hil).toNat : Int)) = false := by simp only [bne, hq]; rfl
            go_wp2_with fail
            refine ⟨⟨i + 1, rfl, by go_num, by omega, ?_, g0', g1', hlq', hB'⟩, by simp [intOf]; omega⟩
            rw [take_snoc A i hlt, take_snoc l i hil, HT.out, HEQ.out]
          · have hq : (((A[i]'hlt).toNat : Int) == ((l[i]'hil).toNat : Int)) = false := by
              simp
              intro h
              exact heq (UInt8.toNat_inj.mp (by omega))
            have HEQ := Lib.hid heq
            clear heq
            go_wp2_with fail
            go_quiet (fail)
            have hlq' : Bx < (wr.drewN nq).heap.size := by simpa using hlq
            have hB' : Below w.heap.size w (wr.drewN nq) := _root_.Go.below_drewN hBq nq
            clear g0 g1 hlq hBq
            generalize wr.drewN nq = w4 at hlq' hB' ⊢
            have hq2 : (((A[i]'hlt).toNat : Int) != ((l[i]'hil).toNat : Int)) = true := by simp only [bne, hq]; rfl
            go_wp2_with fail
            have e1 : (l.extract 0 i).data.toList = l.data.toList.take i := by rw [Lib.extract_data]; simp
            have hi3 : i < A.data.toList.length := by rw [HA0.out]; exact hlt
            have hi4 : i < l.data.toList.length := by rw [HL0.out]; exact hil
            have hne : A.data.toList[i] ≠ l.data.toList[i] := HEQ.out
            refine ⟨⟨l.extract 0 i, rfl, by rw [e1]; exact lims_next HL.out HU.out HT.out hi3 hi4 hne, ?_, hB'⟩, ?_⟩
            · rw [ByteArray.size_extract]; omega
            · simp [szOf, ByteArray.size_extract]; omega
        · have HV : Hid (∀ w', (w'.cell? ⟨Bx, 0, none⟩ = some (.string A) ∧ w'.cell? ⟨Bx, 1, none⟩ = some (.string B) ∧ Bx < w'.heap.size ∧ Below w.heap.size w w') →
              Calls Tryz.prog 215 #[.agg #[.string A, .string B]] w' fun e w3 => ∃ V : ByteArray, e = .returned (.string V) ∧ Hid (V.data.toList = valL B.data.toList) ∧ w3.cell? ⟨Bx, 0, none⟩ = some (.string A) ∧ w3.cell? ⟨Bx, 1, none⟩ = some (.string B) ∧ Bx < w3.heap.size ∧ Below w.heap.size w w3) := by
            refine Lib.hid ?_
            rintro w' ⟨y0, y1, y2, y3⟩
            refine (value A B (by omega) w').mono ?_
            rintro e w3 ⟨V, rfl, hV, hb⟩
            exact ⟨V, rfl, Lib.hid hV, (hb.cell (p := ⟨Bx, 0, none⟩) y2).trans y0, (hb.cell (p := ⟨Bx, 1, none⟩) y2).trans y1, Nat.lt_of_lt_of_le y2 hb.size, below_next y3 hb⟩
          go_wp2_with fail
          go_region_held3 (fun w' => w'.cell? ⟨Bx, 0, none⟩ = some (.string A) ∧ w'.cell? ⟨Bx, 1, none⟩ = some (.string B) ∧ Bx < w'.heap.size ∧ Below w.heap.size w w') (first | exact ⟨g0, g1, hlq, Below.drew hBq⟩ | exact ⟨by assumption, by assumption, by assumption, by assumption⟩ | go_keep)
            (first | (go_at_call 215; refine (HV.out _ ⟨by assumption, by assumption, by assumption, by first | assumption | exact Below.drew (by assumption)⟩).mono ?_; rintro e w3 ⟨V, rfl, hV, c0, c1, c2, c3⟩))
          all_goals
            go_wp2_with fail
            simp only [Exit.noGoto_ret]
            refine bodyPost_ret (v := .tuple #[.int .i64 A.size, .string V]) (by simp [results, Tryz.results171, go_sem]) rfl ⟨_, _, rfl, lims_yes HL.out HU.out ?_ hV.out, c3⟩
            have := HT.out
            rwa [show i = A.size by omega] at this
end Go.Proofs.YtnfccckodgknjaaGreatDoor

namespace Go.Proofs.YtnfccckodgknjaaGreatDoor
open Go.RowKit

def lgs (T : List (List UInt8)) (s : List UInt8) : List Nat := (T.filter fun e => (nameOf e).isPrefixOf s).map fun e => (nameOf e).length
theorem lgs_not (s : List UInt8) (n : Int) (V : ByteArray) (h : LgP s n V) : (lgs ENT s = [] ∧ n = 0 ∧ V = ⟨#[]⟩) ∨ ∃ k : Nat, n = k ∧ k ∈ lgs ENT s ∧ ∀ j ∈ lgs ENT s, j ≤ k := by
  rcases h with ⟨h1, h2, h3⟩ | ⟨e, he, h1, h2, _, h3⟩
  · refine .inl ⟨?_, h1, h2⟩
    unfold lgs
    rw [List.filter_eq_nil_iff.mpr (by intro e he; simpa using h3 e he)]
    rfl
  · refine .inr ⟨_, h2, ?_, ?_⟩
    · unfold lgs
      exact List.mem_map.mpr ⟨e, List.mem_filter.mpr ⟨he, by simpa using h1⟩, rfl⟩
    · intro j hj
      obtain ⟨e', he', rfl⟩ := List.mem_map.mp hj
      obtain ⟨h4, h5⟩ := List.mem_filter.mp he'
      exact h3 e' h4 (by simpa using h5)

def sNet : List UInt8 := [78, 111, 116, 69, 113, 117, 97, 108, 84, 105, 108, 100, 101, 59]
def sBne : List UInt8 := [98, 110, 101]
def sNotin : List UInt8 := [110, 111, 116, 105, 110, 59, 120]
def sNoti : List UInt8 := [110, 111, 116, 105]
def four (T : List (List UInt8)) : Bool :=
  (T.find? fun e => nameOf e == sNet).map (fun e => valL (codesOf e)) == some [226, 137, 130, 204, 184] &&
  (T.find? fun e => nameOf e == sBne).isNone && lgs T sNotin == [3, 6] && lgs T sNoti == [3]
theorem four_b : four (parts 32 NM.data.toList) = true := by decide +kernel
theorem four_p : namedR sNet = some [226, 137, 130, 204, 184] ∧ namedR sBne = none ∧ lgs ENT sNotin = [3, 6] ∧ lgs ENT sNoti = [3] := by
  have h := four_b
  simp only [four, Bool.and_eq_true, beq_iff_eq] at h
  obtain ⟨⟨⟨h1, h2⟩, h3⟩, h4⟩ := h
  refine ⟨h1, ?_, h3, h4⟩
  unfold namedR
  have : ENT.find? (fun e => nameOf e == sBne) = none := by unfold ENT; simpa using h2
  rw [this]; rfl
theorem lg_notin (n : Int) (V : ByteArray) (h : LgP sNotin n V) : n = 6 := by
  rcases lgs_not _ _ _ h with ⟨h1, _⟩ | ⟨k, rfl, h1, h2⟩
  · rw [four_p.2.2.1] at h1; simp at h1
  · rw [four_p.2.2.1] at h1 h2
    have := h2 6 (by simp)
    simp at h1
    omega
theorem lg_noti (n : Int) (V : ByteArray) (h : LgP sNoti n V) : n = 3 := by
  rcases lgs_not _ _ _ h with ⟨h1, _⟩ | ⟨k, rfl, h1, h2⟩
  · rw [four_p.2.2.2] at h1; simp at h1
  · rw [four_p.2.2.2] at h1
    simp at h1
    omega
end Go.Proofs.YtnfccckodgknjaaGreatDoor

namespace Go.Proofs.YtnfccckodgknjaaGreatDoor
open Go.RowKit
set_option maxHeartbeats 1000000
set_option maxRecDepth 100000

theorem decS_list (s : ByteArray) : (decS s).data.toList = decP (piecesB s) := by simp [decS]
theorem decS_size (s : ByteArray) : (decS s).size ≤ 4 * s.size := by
  have h1 := decP_len (piecesB s)
  have h2 := piecesB_len s
  rw [← decS_list, size_list] at h1
  omega

theorem input (s : ByteArray) (m : Int) (hs : s.size ≤ 100000) (w : World) (hm : w.cell? ⟨1, 0, none⟩ = some (.int .i64 m)) :
    Calls Tryz.prog 43 #[.string s] w fun e w' => ∃ S : ByteArray, S.data.toList = newL (decS s).data.toList ∧ e = .returned (.string S) ∧ Below w.heap.size w w' := by
  have hz := decS_size s
  have HM := Lib.hid hm
  clear hm
  go_enter Tryz.func43, Tryz.ntmps43
  go_wp2_with fail
  refine (decode s (by omega) w).mono ?_
  rintro e w1 ⟨rfl, hb1⟩
  generalize hd : decS s = d at hz ⊢
  have HD := Lib.hid hd
  clear hd
  have hm1 := carry HM.out hb1
  have HN := Lib.hid (newlines d m (by omega) w1 hm1)
  clear hm1
  go_wp2_with fail
  refine HN.out.mono ?_
  rintro e w2 ⟨S, hS, rfl, hb2⟩
  have HS := Lib.hid hS
  clear hS
  go_wp2_with fail
  go_ret
  exact ⟨S, by rw [HD.out]; exact HS.out, rfl, below_next hb1 hb2⟩

/-- The global's cell, in every later world. -/
abbrev Ml (m : Int) (w : World) : Prop := w.cell? ⟨1, 0, none⟩ = some (.int .i64 m)

theorem kDig (w : World) : Calls Tryz.prog 174 #[.string ⟨#[48, 102, 103]⟩, .int .i64 16] w fun e w' => e = .returned (.tuple #[.int .i64 15, .int .i64 2]) ∧ Below w.heap.size w w' :=
  digits16 ⟨#[48, 102, 103]⟩ (by decide) w

theorem kDec1 (w : World) : Calls Tryz.prog 95 #[.string ⟨#[65, 195, 169]⟩] w fun e w' => e = .returned (.string ⟨#[65, 195, 169]⟩) ∧ Below w.heap.size w w' :=
  decode ⟨#[65, 195, 169]⟩ (by decide) w
theorem kDec2 (w : World) : Calls Tryz.prog 95 #[.string ⟨#[226, 130, 65]⟩] w fun e w' => e = .returned (.string ⟨#[239, 191, 189, 65]⟩) ∧ Below w.heap.size w w' :=
  decode ⟨#[226, 130, 65]⟩ (by decide) w
theorem kDec3 (w : World) : Calls Tryz.prog 95 #[.string ⟨#[237, 160, 128]⟩] w fun e w' => e = .returned (.string ⟨#[239, 191, 189, 239, 191, 189, 239, 191, 189]⟩) ∧ Below w.heap.size w w' :=
  decode ⟨#[237, 160, 128]⟩ (by decide) w
theorem kInp (m : Int) (w : World) (hm : Ml m w) : Calls Tryz.prog 43 #[.string ⟨#[13, 10, 13, 13]⟩] w fun e w' => e = .returned (.string ⟨#[10, 10, 10]⟩) ∧ Below w.heap.size w w' := by
  refine (input _ m (by decide) w hm).mono ?_
  rintro e w' ⟨S, hS, rfl, hb⟩
  have h3 : S = ⟨#[10, 10, 10]⟩ := list_bytes _ _ (hS.trans (by decide +kernel))
  rw [h3]
  exact ⟨rfl, hb⟩
theorem kLow (w : World) : Calls Tryz.prog 112 #[.string ⟨#[65, 98, 90, 195, 137]⟩] w fun e w' => e = .returned (.string ⟨#[97, 98, 122, 195, 137]⟩) ∧ Below w.heap.size w w' :=
  lower ⟨#[65, 98, 90, 195, 137]⟩ (by decide) w
theorem kTxt (m : Int) (w : World) (hm : Ml m w) : Calls Tryz.prog 230 #[.string ⟨#[97, 60, 34, 38, 62]⟩] w fun e w' => e = .returned (.string ⟨#[97, 38, 108, 116, 59, 34, 38, 97, 109, 112, 59, 38, 103, 116, 59]⟩) ∧ Below w.heap.size w w' := by
  refine (escapeText _ m (by decide) w hm).mono ?_
  rintro e w' ⟨S, hS, rfl, hb⟩
  have h3 : S = ⟨#[97, 38, 108, 116, 59, 34, 38, 97, 109, 112, 59, 38, 103, 116, 59]⟩ := list_bytes _ _ (hS.trans (by decide +kernel))
  rw [h3]
  exact ⟨rfl, hb⟩
theorem kVal (m : Int) (w : World) (hm : Ml m w) : Calls Tryz.prog 16 #[.string ⟨#[97, 60, 34, 38, 62]⟩] w fun e w' => e = .returned (.string ⟨#[97, 60, 38, 113, 117, 111, 116, 59, 38, 97, 109, 112, 59, 62]⟩) ∧ Below w.heap.size w w' := by
  refine (escapeValue _ m (by decide) w hm).mono ?_
  rintro e w' ⟨S, hS, rfl, hb⟩
  have h3 : S = ⟨#[97, 60, 38, 113, 117, 111, 116, 59, 38, 97, 109, 112, 59, 62]⟩ := list_bytes _ _ (hS.trans (by decide +kernel))
  rw [h3]
  exact ⟨rfl, hb⟩

end Go.Proofs.YtnfccckodgknjaaGreatDoor

namespace Go.Proofs.YtnfccckodgknjaaGreatDoor
open Go.RowKit
set_option maxHeartbeats 1000000
set_option maxRecDepth 100000

theorem rSpace (b : Int) (w : World) : Calls Tryz.prog 70 #[.int .u8 b] w fun e w' => e = .returned (.bool (spB b)) ∧ w' = w := by
  go_enter Tryz.func70, Tryz.ntmps70
  go_wp2
  all_goals go_ret
  all_goals exact ⟨ret_bool (by rw [Bool.eq_iff_iff]; simp [spB, *] <;> omega), rfl⟩
theorem rUpper (b : Int) (w : World) : Calls Tryz.prog 57 #[.int .u8 b] w fun e w' => e = .returned (.bool (upB b)) ∧ w' = w := by
  go_enter Tryz.func57, Tryz.ntmps57
  go_wp2
  all_goals go_ret
  all_goals exact ⟨ret_bool (by simp [upB, *] <;> omega), rfl⟩
theorem rLetter (b : Int) (w : World) : Calls Tryz.prog 80 #[.int .u8 b] w fun e w' => e = .returned (.bool (letB b)) ∧ w' = w := by
  go_enter Tryz.func80, Tryz.ntmps80
  go_wp2_with (go_at_call 57; refine (rUpper _ _).mono ?_; rintro e w' ⟨rfl, rfl⟩)
  all_goals go_ret
  all_goals exact ⟨ret_bool (by simp_all [upB, letB] <;> omega), rfl⟩
theorem rDigit (b : Int) (w : World) : Calls Tryz.prog 236 #[.int .u8 b] w fun e w' => e = .returned (.bool (digB b)) ∧ w' = w := by
  go_enter Tryz.func236, Tryz.ntmps236
  go_wp2
  all_goals go_ret
  all_goals exact ⟨ret_bool (by simp [digB, *] <;> omega), rfl⟩
theorem rAlnum (b : Int) (w : World) : Calls Tryz.prog 209 #[.int .u8 b] w fun e w' => e = .returned (.bool (alnB b)) ∧ w' = w := by
  go_enter Tryz.func209, Tryz.ntmps209
  go_wp2_with (first | (go_at_call 80; refine (rLetter _ _).mono ?_; rintro e w' ⟨rfl, rfl⟩) | (go_at_call 236; refine (rDigit _ _).mono ?_; rintro e w' ⟨rfl, rfl⟩))
  all_goals go_ret
  all_goals exact ⟨ret_bool (by simp_all [alnB]), rfl⟩

def hexA : ByteArray := ⟨#[48, 49, 50, 51, 52, 53, 54, 55, 56, 57, 97, 98, 99, 100, 101, 102, 48, 49, 50, 51, 52, 53, 54, 55, 56, 57, 65, 66, 67, 68, 69, 70]⟩
def hexV (b : Int) : Int := if digB b then b - 48 else if 97 ≤ b ∧ b ≤ 102 then b - 87 else if 65 ≤ b ∧ b ≤ 70 then b - 55 else -1
theorem hexA_size : hexA.size = 32 := rfl
theorem hexV_at : ∀ i (h : i < hexA.size), hexV ((hexA[i]'h).toNat : Int) = ((i % 16 : Nat) : Int) := by
  have : ∀ i : Fin 32, hexV ((hexA[i.val]'(i.isLt)).toNat : Int) = ((i.val % 16 : Nat) : Int) := by decide
  exact fun i h => this ⟨i, h⟩
theorem hexV_none (b : Int) (h : ∀ j (hj : j < hexA.size), ((hexA[j]'hj).toNat : Int) ≠ b) : hexV b = -1 := by
  have k : ∀ j : Fin 32, ((hexA[j.val]'(j.isLt)).toNat : Int) ≠ b := fun j => h j.val j.isLt
  have k0 : (48 : Int) ≠ b := k 0
  have k1 : (49 : Int) ≠ b := k 1
  have k2 : (50 : Int) ≠ b := k 2
  have k3 : (51 : Int) ≠ b := k 3
  have k4 : (52 : Int) ≠ b := k 4
  have k5 : (53 : Int) ≠ b := k 5
  have k6 : (54 : Int) ≠ b := k 6
  have k7 : (55 : Int) ≠ b := k 7
  have k8 : (56 : Int) ≠ b := k 8
  have k9 : (57 : Int) ≠ b := k 9
  have k10 : (97 : Int) ≠ b := k 10
  have k11 : (98 : Int) ≠ b := k 11
  have k12 : (99 : Int) ≠ b := k 12
  have k13 : (100 : Int) ≠ b := k 13
  have k14 : (101 : Int) ≠ b := k 14
  have k15 : (102 : Int) ≠ b := k 15
  have k26 : (65 : Int) ≠ b := k 26
  have k27 : (66 : Int) ≠ b := k 27
  have k28 : (67 : Int) ≠ b := k 28
  have k29 : (68 : Int) ≠ b := k 29
  have k30 : (69 : Int) ≠ b := k 30
  have k31 : (70 : Int) ≠ b := k 31
  clear h k
  unfold hexV
  rw [if_neg (by simp [digB]; omega), if_neg (by omega), if_neg (by omega)]

theorem rHex (b : Int) (w : World) : Calls Tryz.prog 240 #[.int .u8 b] w fun e w' => e = .returned (.int .i64 (hexV b)) ∧ w' = w := by
  go_enter Tryz.func240, Tryz.ntmps240
  generalize hN : (ByteArray.mk #[48, 49, 50, 51, 52, 53, 54, 55, 56, 57, 97, 98, 99, 100, 101, 102, 48, 49, 50, 51, 52, 53, 54, 55, 56, 57, 65, 66, 67, 68, 69, 70]) = N
  have HN : hexA = N := by rw [← hN]; rfl
  clear hN
  have HA := Lib.hid hexV_at
  have HO := Lib.hid (hexV_none b)
  have hsz := hexA_size
  rw [HN] at HA HO hsz
  clear HN
  have HSZ := Lib.hid hsz
  clear hsz
  go_wp2_with fail
  go_loop [4] (fun v => ∃ i : Nat, v = .int .i64 i ∧ i ≤ 32 ∧ ∀ j (hj : j < N.size), j < i → ((N[j]'hj).toNat : Int) ≠ b) (fun v => 32 - (intOf v).toNat)
  case atStart => exact ⟨0, rfl, by omega, fun j _ h => by omega⟩
  case round =>
    obtain ⟨i, rfl, hi, hno⟩ := hrel
    have HNO := Lib.hid hno
    clear hno
    by_cases hlt : i < N.size
    · have hlt2 : i < 32 := by have := HSZ.out; omega
      have hI : (i : Int) < (N.size : Int) := by omega
      by_cases hq : (((N[i]'hlt).toNat : Int) == b) = true
      · have hv := HA.out i hlt
        rw [show ((N[i]'hlt).toNat : Int) = b from eq_of_beq hq] at hv
        have HV := Lib.hid hv
        clear hv
        go_wp2
        go_ret
        exact ⟨ret_int (by rw [HV.out]; omega), rfl⟩
      · simp only [Bool.not_eq_true] at hq
        go_wp2
        go_round
        case rel =>
          refine ⟨i + 1, by go_num, by omega, ?_⟩
          intro j hj hji
          by_cases e : j = i
          · subst e; exact ne_of_beq_false hq
          · exact HNO.out j hj (by omega)
        case measure => simp [intOf]; omega
    · go_wp2
      go_ret
      exact ⟨ret_int (by rw [HO.out (fun j hj => HNO.out j hj (by omega))]), rfl⟩

theorem hexV_hex (b : Int) : decide (0 ≤ hexV b) = hexB b := by
  unfold hexV hexB digB
  rw [Bool.eq_iff_iff]
  split
  · rename_i h; simp at h ⊢; omega
  · split
    · rename_i h1 h2; simp at h1 h2 ⊢; omega
    · split
      · rename_i h1 h2 h3; simp at h1 h2 h3 ⊢; omega
      · rename_i h1 h2 h3; simp at h1 h2 h3 ⊢; omega

end Go.Proofs.YtnfccckodgknjaaGreatDoor

namespace Go.Proofs.YtnfccckodgknjaaGreatDoor
open Go.RowKit
set_option maxHeartbeats 2000000
set_option maxRecDepth 100000

/-- The table of the controls, as the start lays it. -/
def CtlW (w : World) : Prop := ∀ k, k < 32 → w.cell? ⟨0, k, none⟩ = some (.int .i32 (ctlT.getD k 0))
theorem CtlW.below {w w' : World} (h : CtlW w) (hb : Below w.heap.size w w') : CtlW w' := fun k hk => (hb.cell (World.block_lt_of_cell? _ _ (h k hk))).trans (h k hk)

theorem codePoint (code : Int) (w : World) (hc : CtlW w) :
    Calls Tryz.prog 175 #[.int .i64 code] w fun e w' => e = .returned (.int .i32 (cpZ code)) ∧ Below w.heap.size w w' := by
  have hsel : (code ≤ 0 ∧ cpZ code = 65533) ∨ (1 ≤ code ∧ 1114112 ≤ code ∧ cpZ code = 65533) ∨ (1 ≤ code ∧ code ≤ 1114111 ∧ 55296 ≤ code ∧ code ≤ 57343 ∧ cpZ code = 65533) ∨
      (128 ≤ code ∧ code ≤ 159 ∧ cpZ code = ctlT.getD (code - 128).toNat 0) ∨ (1 ≤ code ∧ code < 128 ∧ cpZ code = code) ∨ (160 ≤ code ∧ code < 55296 ∧ cpZ code = code) ∨ (57344 ≤ code ∧ code ≤ 1114111 ∧ cpZ code = code) := by
    unfold cpZ badB
    by_cases h1 : code ≤ 0
    · exact .inl ⟨h1, by simp [h1]⟩
    by_cases h2 : 1114112 ≤ code
    · exact .inr (.inl ⟨by omega, h2, by simp [h2]⟩)
    by_cases h3 : 55296 ≤ code ∧ code ≤ 57343
    · exact .inr (.inr (.inl ⟨by omega, by omega, h3.1, h3.2, by simp [h3.1, h3.2]⟩))
    have hb : (decide (code ≤ 0) || decide (1114112 ≤ code) || (decide (55296 ≤ code) && decide (code ≤ 57343))) = false := by
      rw [Bool.eq_false_iff]; simp; omega
    rw [hb, if_neg (by simp)]
    by_cases h4 : 128 ≤ code ∧ code ≤ 159
    · exact .inr (.inr (.inr (.inl ⟨h4.1, h4.2, by rw [if_pos h4]⟩)))
    rw [if_neg h4]
    by_cases h5 : code < 128
    · exact .inr (.inr (.inr (.inr (.inl ⟨by omega, h5, rfl⟩))))
    by_cases h6 : code < 55296
    · exact .inr (.inr (.inr (.inr (.inr (.inl ⟨by omega, h6, rfl⟩)))))
    · exact .inr (.inr (.inr (.inr (.inr (.inr ⟨by omega, by omega, rfl⟩)))))
  obtain ⟨R, hR⟩ : ∃ R, R = cpZ code := ⟨_, rfl⟩
  rw [← hR] at hsel ⊢
  have HC := Lib.hid hc
  clear hc hR
  rcases hsel with ⟨h1, rfl⟩ | ⟨h1, h2, rfl⟩ | ⟨h1, h2, h3, h4, rfl⟩ | ⟨h1, h2, h3⟩ | ⟨h1, h2, rfl⟩ | ⟨h1, h2, rfl⟩ | ⟨h1, h2, rfl⟩
  · go_enter Tryz.func175, Tryz.ntmps175
    go_wp2_with fail
    go_ret
    exact ⟨rfl, Below.refl _ _⟩
  · go_enter Tryz.func175, Tryz.ntmps175
    go_wp2_with fail
    go_ret
    exact ⟨rfl, Below.refl _ _⟩
  · go_enter Tryz.func175, Tryz.ntmps175
    go_wp2_with fail
    go_ret
    exact ⟨rfl, Below.refl _ _⟩
  · have hc := HC.out (code - 128).toNat (by omega)
    have hk0 : (0 : Int) ≤ code - 128 := by omega
    have hk1 : code - 128 < 32 := by omega
    have h55 : code < 55296 := by omega
    rw [← h3] at hc
    clear h3
    go_enter Tryz.func175, Tryz.ntmps175
    go_wp2_with fail
    go_ret
    exact ⟨rfl, Below.refl _ _⟩
  · go_enter Tryz.func175, Tryz.ntmps175
    go_wp2_with fail
    go_ret
    exact ⟨rfl, Below.refl _ _⟩
  · go_enter Tryz.func175, Tryz.ntmps175
    go_wp2_with fail
    go_ret
    exact ⟨rfl, Below.refl _ _⟩
  · go_enter Tryz.func175, Tryz.ntmps175
    go_wp2_with fail
    go_ret
    exact ⟨rfl, Below.refl _ _⟩

theorem winT_step (code : Int) (k : Nat) (hk : k < 27) : winF code (winT.drop k) = if (winT.getD k (0, 0)).1 = code then (winT.getD k (0, 0)).2 else winF code (winT.drop (k + 1)) := by
  have key : ∀ k : Fin 27, winT.drop k.val = ((winT.getD k.val (0, 0)).1, (winT.getD k.val (0, 0)).2) :: winT.drop (k.val + 1) := by decide
  rw [key ⟨k, hk⟩]
  rfl
theorem winT_bd (k : Nat) (hk : k < 27) : 0 ≤ (winT.getD k (0, 0)).2 ∧ (winT.getD k (0, 0)).2 ≤ 65535 := by
  have key : ∀ k : Fin 27, 0 ≤ (winT.getD k.val (0, 0)).2 ∧ (winT.getD k.val (0, 0)).2 ≤ 65535 := by decide
  exact key ⟨k, hk⟩

def flat2 : List (Int × Int) → List Value
  | [] => []
  | p :: l => .int .i64 p.1 :: .int .i64 p.2 :: flat2 l
theorem flat2_get : ∀ (l : List (Int × Int)) (k : Nat), k < l.length → (flat2 l)[k * 2]? = some (.int .i64 (l.getD k (0, 0)).1) ∧ (flat2 l)[k * 2 + 1]? = some (.int .i64 (l.getD k (0, 0)).2)
  | [], k, h => absurd h (by simp)
  | p :: l, 0, _ => ⟨rfl, rfl⟩
  | p :: l, k + 1, h => by
    have := flat2_get l k (by simpa using h)
    rw [show (k + 1) * 2 = k * 2 + 1 + 1 by omega]
    exact this
theorem cells_new (w : World) (l : List Value) (T : TypeId) (o : Nat) : (w.alloc (.cells l.toArray T)).cell? ⟨w.heap.size, o, none⟩ = l[o]? := by
  have : (w.alloc (.cells l.toArray T)).heap[w.heap.size]? = some (.cells l.toArray T (0, 0)) := World.alloc_heap_new w _
  unfold World.cell?
  simp only
  rw [this]
  simp

theorem rWindows (w : World) : Calls Tryz.prog 241 #[] w fun e w' => ∃ g, e = .returned (.slice (some ⟨g, 0, none⟩) 27 27) ∧ (∀ k, k < 27 → w'.cell? ⟨g, k * 2, none⟩ = some (.int .i64 (winT.getD k (0, 0)).1) ∧ w'.cell? ⟨g, k * 2 + 1, none⟩ = some (.int .i64 (winT.getD k (0, 0)).2)) ∧ g < w'.heap.size ∧ Below w.heap.size w w' := by
  go_enter Tryz.func241, Tryz.ntmps241
  go_wp2_with fail
  go_ret
  refine ⟨w.heap.size, rfl, ?_, by simp, below_alloc (Below.refl _ _) _⟩
  intro k hk
  have h := flat2_get winT k hk
  rw [← h.1, ← h.2]
  exact ⟨cells_new w (flat2 winT) 206 _, cells_new w (flat2 winT) 206 _⟩

theorem rCodePoint (code : Int) (w : World) :
    Calls Tryz.prog 213 #[.int .i64 code] w fun e w' => e = .returned (.int .i32 (cpZ code)) ∧ Below w.heap.size w w' := by
  by_cases hb : badB code = true
  · have hR : cpZ code = 65533 := by unfold cpZ; rw [if_pos hb]
    rw [hR]
    clear hR
    have hsel : code < 1 ∨ (1 ≤ code ∧ 1114111 < code) ∨ (1 ≤ code ∧ code ≤ 1114111 ∧ 55295 < code ∧ code < 57344) := by
      simp [badB] at hb; omega
    clear hb
    rcases hsel with h1 | ⟨h1, h2⟩ | ⟨h1, h2, h3, h4⟩
    all_goals
      go_enter Tryz.func213, Tryz.ntmps213
      go_wp2_with fail
      go_ret
      exact ⟨rfl, Below.refl _ _⟩
  · have hbf : badB code = false := by simpa using hb
    have hW := winF_cp code hbf
    obtain ⟨R, hR⟩ : ∃ R, R = cpZ code := ⟨_, rfl⟩
    rw [← hR] at hW ⊢
    have HW := Lib.hid hW
    have hr := cpZ_bd code
    rw [← hR] at hr
    obtain ⟨hr1, hr2, _⟩ := hr
    have hsel : (1 ≤ code ∧ code ≤ 55295) ∨ (57344 ≤ code ∧ code ≤ 1114111) := by
      simp [badB] at hbf; omega
    clear hb hbf hW hR
    rcases hsel with ⟨h1, h2⟩ | ⟨h1, h2⟩
    all_goals
      go_enter Tryz.func213, Tryz.ntmps213
      go_wp2_with fail
      refine (rWindows _).mono ?_
      rintro e w1 ⟨g, rfl, hg, hgl, hb1⟩
      have HG := Lib.hid hg
      clear hg
      go_wp2_with fail
      go_loopw [4] (fun i wr => ∃ k : Nat, k ≤ 27 ∧ i = .int .i64 k ∧ winF code (winT.drop k) = R ∧ Below w1.heap.size w1 wr) (fun i _ => 27 - (intOf i).toNat)
      case atStart => exact ⟨0, by omega, rfl, HW.out, Below.refl _ _⟩
      case round =>
        obtain ⟨k, hk, rfl, hf, hB⟩ := hrel
        by_cases hlt : k < 27
        · have hI : (k : Int) < 27 := by omega
          have hc0 := (hB.cell (p := ⟨g, k * 2, none⟩) hgl).trans (HG.out k hlt).1
          have hc1 := (hB.cell (p := ⟨g, k * 2 + 1, none⟩) hgl).trans (HG.out k hlt).2
          have hst := winT_step code k hlt
          rw [hf] at hst
          obtain ⟨b0, b1⟩ := winT_bd k hlt
          generalize (winT.getD k (0, 0)).1 = a at hc0 hst
          generalize (winT.getD k (0, 0)).2 = b at hc1 hst b0 b1
          have HST := Lib.hid hst
          clear hst hf
          by_cases hac : a = code
          · have hq : (a == code) = true := by simpa using hac
            have HF : Hid (b = R) := Lib.hid (by have := HST.out; rw [if_pos hac] at this; exact this.symm)
            clear hac
            go_wp2_with fail
            go_ret
            rw [← HF.out]
            exact ⟨rfl, below_next hb1 hB⟩
          · have hq : (a == code) = false := by simpa using hac
            have HF : Hid (winF code (winT.drop (k + 1)) = R) := Lib.hid (by have := HST.out; rw [if_neg hac] at this; exact this.symm)
            clear hac
            go_wp2_with fail
            go_roundw
            case rel => exact ⟨k + 1, by omega, by go_num, HF.out, hB⟩
            case measure => simp [intOf]; omega
        · have HF : Hid (code = R) := Lib.hid (by
            rw [show k = 27 by omega] at hf
            exact hf)
          clear hf
          go_wp2_with fail
          go_ret
          rw [← HF.out]
          exact ⟨rfl, below_next hb1 hB⟩
end Go.Proofs.YtnfccckodgknjaaGreatDoor
