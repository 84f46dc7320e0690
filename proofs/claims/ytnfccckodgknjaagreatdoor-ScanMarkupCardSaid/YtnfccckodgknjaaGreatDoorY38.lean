/-
  resolved: the markup with its references replaced; RAWTEXT, RCDATA.
  Value: the value of an attribute.
  attribute.
  Script data: stops, tookScript, tookOpening.
  A cursor and a builder with its keeper, side by side.
  A document type declaration that is being read: its cells, and the small methods.
  A document type declaration: its identifiers.
-/
import Derived.Test.YtnfccckodgknjaaGreatDoorY37
import Derived.Test.YtnfccckodgknjaaGreatDoorY27
import Derived.Test.YtnfccckodgknjaaGreatDoorY33
import Derived.RangeFuncBox
import Derived.Test.YtnfccckodgknjaaGreatDoorY25
import Derived.Deep.RegionHeld3
import Derived.Test.YtnfccckodgknjaaGreatDoorY29
namespace Go.Proofs.YtnfccckodgknjaaGreatDoor
open Go.RowKit Go.Shelf Go.Lib
set_option maxHeartbeats 2000000
set_option maxRecDepth 100000

/-- What the loop of resolved keeps. -/
structure Rsv (B b g : Nat) (acc : List UInt8) (w wr : World) : Prop where
  bld : IsBuilderF 115 5 B b (byteCells acc) wr
  kee : wr.heap[g]? = some (.cells #[.pointer (some ⟨b, 0, none⟩)] 113 (0, 0))
  bel : Below B w wr
  gB : B ≤ g
  gb : g ≠ b

theorem rsv_keep {B b g : Nat} {acc : List UInt8} {m : Int} {w wr : World} (h : Rsv B b g acc w wr) (hBw : B ≤ w.heap.size) (hm : wr.cell? ⟨1, 0, none⟩ = some (.int .i64 m)) (p : ByteArray) (hp : p.size ≤ 10000000) (hl : acc.length ≤ 1000000000) :
    Calls Tryz.prog 176 #[.string p, .pointer (some ⟨g, 0, none⟩)] wr fun e w' => e = .returned (.tuple #[]) ∧ Rsv B b g (acc ++ nulL p.data.toList) w w' := by
  have hsz : B ≤ wr.heap.size := Nat.le_trans hBw h.bel.size
  refine (keep1 B b g m p acc wr hm (by simp [World.cell?, h.kee]) h.bld hp hl hsz).mono ?_
  rintro e w' ⟨rfl, h1, h2, h3⟩
  refine ⟨rfl, h1, ?_, h.bel.trans h2, h.gB, h.gb⟩
  exact (others_cells h3 h2).same g _ _ _ h.kee h.gb (by decide)
theorem rsv_write {B b g : Nat} {acc : List UInt8} {w wr : World} (h : Rsv B b g acc w wr) (hBw : B ≤ w.heap.size) (p : ByteArray) (hp : p.size ≤ 10000000) (hl : acc.length ≤ 1000000000) :
    Calls Tryz.prog 155 #[.pointer (some ⟨b, 0, none⟩), .string p] wr fun e w' => e = .returned (.tuple #[.int .i64 p.size, .nilIface]) ∧ Rsv B b g (acc ++ p.data.toList) w w' := by
  have hsz : B ≤ wr.heap.size := Nat.le_trans hBw h.bel.size
  refine (writeString B b _ p wr h.bld (by simp [byteCells]; omega) hsz).mono ?_
  rintro e w' ⟨rfl, h1, h2, h3⟩
  refine ⟨rfl, ?_, (others_cells h3 h2).same g _ _ _ h.kee h.gb (by decide), h.bel.trans h2, h.gB, h.gb⟩
  rw [byteCells_append]
  exact h1
theorem rsv_below {B b g : Nat} {acc : List UInt8} {w wr w' : World} (h : Rsv B b g acc w wr) (hBw : B ≤ w.heap.size) (hb : Below wr.heap.size wr w') : Rsv B b g acc w w' :=
  ⟨builder_below h.bld hb, (hb.block g (Array.getElem?_eq_some_iff.1 h.kee).1).trans h.kee, h.bel.trans (hb.mono (Nat.le_trans hBw h.bel.size)), h.gB, h.gb⟩

theorem cutE (q : ByteArray) (c : UInt8) (m : Int) (w : World) (hq : q.size ≤ 1000000000) (hm : w.cell? ⟨1, 0, none⟩ = some (.int .i64 m)) :
    Calls Tryz.prog 178 #[.string q, .string ⟨#[c]⟩] w fun e w' => ∃ (A B : ByteArray) (f : Bool), e = .returned (.tuple #[.string A, .string B, .bool f]) ∧ Below w.heap.size w w' ∧
      ((f = true ∧ q.data.toList = A.data.toList ++ c :: B.data.toList ∧ (∀ x ∈ A.data.toList, x ≠ c)) ∨ (f = false ∧ A.data.toList = q.data.toList ∧ ∀ x ∈ q.data.toList, x ≠ c)) := by
  refine (Tryz.strings_Cut q ⟨#[c]⟩ m w (by omega) hm).mono ?_
  rintro e w' ⟨rfl, n, rfl⟩
  exact ⟨_, _, _, rfl, by (repeat' (first | (with_reducible exact Below.refl _ _) | (with_reducible assumption) | (with_reducible refine below_alloc ?_ _) | (with_reducible refine Below.drew ?_) | (with_reducible refine _root_.Go.below_drewN ?_ _) | (with_reducible refine Below.setCell ?_ ?_ _) | go_size | (refine below_next ?_ (by assumption)))), cut_cases c q.data.toList⟩

theorem resolvedC (lg : List UInt8 → Nat × List UInt8) (HLG : Hid (LgOk lg)) (p : ByteArray) (attr : Bool) (m : Int) (hp : p.size ≤ 1000000) (w : World) (hc : CtlW w) (hm : w.cell? ⟨1, 0, none⟩ = some (.int .i64 m)) :
    Calls Tryz.prog 121 #[.string p, .bool attr] w fun e w' => e = .returned (.string (bl (res (refL lg attr) p.data.toList))) ∧ Below w.heap.size w w' := by
  have HM := Lib.hid hm
  have HC := Lib.hid hc
  have HP := Lib.hid hp
  have hnew : (w.alloc (.cells #[.pointer none, .slice none 0 0] 115)).heap[w.heap.size]? = some (.cells #[.pointer none, .slice none 0 0] 115 (0, 0)) := by
    show (w.heap.push _)[w.heap.size]? = _
    simp
  have HN := Lib.hid hnew
  clear hm hc hp hnew
  go_enter Tryz.func121, Tryz.ntmps121
  go_wp2_with fail
  refine (keeper w.heap.size _).mono ?_
  rintro e w1 ⟨g, rfl, hg, hge, hb1⟩
  have h1 : IsBuilderF 115 5 w.heap.size w.heap.size (byteCells []) w1 := builder_below (builder_fresh (Nat.le_refl _) HN.out) hb1
  have hsz : w.heap.size ≤ w1.heap.size := by have := hb1.size; simp at this; omega
  have hB1 : Below w.heap.size w w1 := (below_alloc (Below.refl _ _) _).trans (hb1.mono (by simp))
  have hgn : w.heap.size + 1 ≤ g := by simpa using hge
  have hR : Rsv w.heap.size w.heap.size g [] w w1 := ⟨h1, hg, hB1, by omega, by omega⟩
  clear hg hge h1 hb1 hgn
  go_wp2_with fail
  go_loopg [0] p.size (fun gn v wr => ∃ (q : ByteArray) (acc : List UInt8), v = .string q ∧ gn = q.size ∧ q.size ≤ p.size ∧ acc ++ res (refL lg attr) q.data.toList = res (refL lg attr) p.data.toList ∧ acc.length + 404 * q.size ≤ 404 * p.size ∧ Rsv w.heap.size w.heap.size g acc w wr)
  case atStart => exact ⟨p, [], rfl, rfl, Nat.le_refl _, rfl, by simp, hR⟩
  case round =>
    obtain ⟨q, acc, rfl, hgn, hqs, hacc, hal, hrs⟩ := hrel
    have HACC := Lib.hid hacc
    have HAL := Lib.hid hal
    have HQS := Lib.hid hqs
    have HGN := Lib.hid hgn
    have HCu := Lib.hid (cutE q 38 m wr (by have := HP.out; omega) (carry HM.out hrs.bel))
    clear hR hacc hal hqs hgn hB1 hsz
    go_wp2_with fail
    refine HCu.out.mono ?_
    rintro e w2 ⟨A, Bv, f, rfl, hb2, hcut⟩
    have hrs2 := rsv_below hrs (Nat.le_refl _) hb2
    have hAz : A.size ≤ q.size := by
      rcases hcut with ⟨_, h, _⟩ | ⟨_, h, _⟩
      · rw [← size_list, ← size_list q, h, List.length_append]; omega
      · rw [← size_list, h, size_list]; omega
    have HK := Lib.hid (rsv_keep hrs2 (Nat.le_refl _) (carry HM.out hrs2.bel) A (by have := HP.out; have := HQS.out; omega) (by have := HAL.out; have := HP.out; omega))
    have HAZ := Lib.hid hAz
    have HCT := Lib.hid hcut
    clear hAz hcut
    cases f
    · go_wp2_with fail
      refine HK.out.mono ?_
      rintro e w3 ⟨rfl, hrs3⟩
      have HSt := Lib.hid (Tryz.Builder_String_any_k w.heap.size w.heap.size _ w3 hrs3.bld hrs3.bel.size)
      have HR3 := Lib.hid hrs3
      clear hrs3 hrs2 hrs
      go_wp2_with fail
      refine HSt.out.mono ?_
      rintro e w4 ⟨rfl, _, hb4, _⟩
      go_wp2_with fail
      go_ret
      refine ⟨?_, HR3.out.bel.trans hb4⟩
      rcases HCT.out with ⟨h, _⟩ | ⟨_, h1, h2⟩
      · cases h
      · refine ret_str ?_
        rw [h1, ← HACC.out, res_plain _ _ h2]
        rfl
    · go_wp2_with fail
      refine HK.out.mono ?_
      rintro e w3 ⟨rfl, hrs3⟩
      have hct : q.data.toList = A.data.toList ++ 38 :: Bv.data.toList ∧ (∀ x ∈ A.data.toList, x ≠ 38) := by
        rcases HCT.out with ⟨_, h⟩ | ⟨h, _⟩
        · exact h
        · cases h
      have hz : q.size = A.size + 1 + Bv.size := by
        rw [← size_list, hct.1, List.length_append, List.length_cons, size_list, size_list]; omega
      have HZ := Lib.hid hz
      have HCT2 := Lib.hid hct
      have HRf := Lib.hid (referenceC lg HLG Bv 0 attr m (by have := HP.out; have := HQS.out; omega) w3 (HC.out.below hrs3.bel) (carry HM.out hrs3.bel))
      have hc0 : clip Bv 0 = 0 := by unfold clip; omega
      have ht0 : tlS Bv 0 = Bv.data.toList := by unfold tlS; rw [hc0]; rfl
      rw [hc0, ht0] at HRf
      simp only [Nat.zero_add] at HRf
      clear hz hct hc0 ht0
      go_wp2_with fail
      refine HRf.out.mono ?_
      rintro e w4 ⟨V, N, rfl, hV, hN, hNB, hb4⟩
      have hrs4 := rsv_below hrs3 (Nat.le_refl _) hb4
      have hVz : V.size ≤ 404 + N := by rw [← size_list, hV, hN]; exact (refL_le HLG.out attr _).2
      have hal3 : (acc ++ nulL A.data.toList).length ≤ 500000000 := by
        rw [List.length_append]
        have h1 := nulL_len A.data.toList
        rw [size_list] at h1
        have := HAL.out; have := HP.out; have := HQS.out; have := HZ.out
        omega
      have HW := Lib.hid (rsv_write hrs4 (Nat.le_refl _) V (by have := HP.out; have := HQS.out; have := HZ.out; omega) (by omega))
      have HV := Lib.hid hV
      have HN := Lib.hid hN
      have HVZ := Lib.hid hVz
      have hNi : (N : Int) ≤ (Bv.size : Int) := by omega
      clear hV hN hVz hrs4 hal3
      go_wp2_with fail
      refine HW.out.mono ?_
      rintro e w5 ⟨rfl, hrs5⟩
      go_wp2_with fail
      go_roundg (Bv.size - N)
      case measure => have := HGN.out; have := HZ.out; omega
      case rel =>
        refine ⟨Bv.extract N Bv.size, _, rfl, by rw [ByteArray.size_extract]; omega, by rw [ByteArray.size_extract]; have := HQS.out; have := HZ.out; omega, ?_, ?_, hrs5⟩
        · rw [← HACC.out, HCT2.out.1, res_run _ _ _ HCT2.out.2, res_amp, ext_drop, ← HN.out, ← HV.out]
          simp [List.append_assoc]
        · rw [ByteArray.size_extract, List.length_append, List.length_append, size_list]
          have h1 := nulL_len A.data.toList
          rw [size_list] at h1
          have := HAL.out; have := HZ.out; have := HVZ.out
          omega

theorem rcdata (lg : List UInt8 → Nat × List UInt8) (HLG : Hid (LgOk lg)) (s : ByteArray) (a : Int) (last : ByteArray) (m : Int) (hs : s.size ≤ 1000000) (w : World) (hc : CtlW w) (hm : w.cell? ⟨1, 0, none⟩ = some (.int .i64 m)) :
    Calls Tryz.prog 55 #[.string s, .int .i64 a, .string last] w fun e w' => ∃ N, stopL last.data.toList (tlS s a) = (tlS s a).drop N ∧ clip s a + N ≤ s.size ∧ e = .returned (.tuple #[.string (bl (res (refL lg false) ((tlS s a).take N))), .int .i64 ((clip s a + N : Nat) : Int)]) ∧ Below w.heap.size w w' := by
  have HC := Lib.hid (cursorAt s a (by unfold maxLen; omega))
  have HM := Lib.hid hm
  have HCt := Lib.hid hc
  have hk := clip_le s a
  unfold tlS
  generalize clip s a = k at HC hk ⊢
  have HK := Lib.hid hk
  have HS := Lib.hid hs
  clear hm hk hs hc
  go_enter Tryz.func55, Tryz.ntmps55
  go_wp2_with fail
  refine (HC.out _).mono ?_
  rintro e w1 ⟨rfl, hb1⟩
  have hat : At (w1.alloc (.cells #[.string s, .int .i64 k] 79)) w1.heap.size #[.string s, .int .i64 k] 79 s k := at_new rfl
  have hB : Below w.heap.size w (w1.alloc (.cells #[.string s, .int .i64 k] 79)) := below_alloc hb1 _
  have hle : w.heap.size ≤ w1.heap.size := hb1.size
  have HU := Lib.hid (untilClosed w1.heap.size 79 s last k HK.out (by have := HS.out; omega) _ hat)
  clear hat
  go_wp2_with fail
  refine HU.out.mono ?_
  rintro e w2 ⟨N, V, rfl, hst, hkN, hV, hVn, h2, hB2⟩
  have hBB : Below w.heap.size w w2 := below_but hB hB2 hle
  have hrc := resolvedC lg HLG V false m (by have := HS.out; omega) w2 (HCt.out.below hBB) (carry HM.out hBB)
  obtain ⟨R, hR⟩ : ∃ R, R = bl (res (refL lg false) V.data.toList) := ⟨_, rfl⟩
  rw [← hR] at hrc
  have HRC := Lib.hid hrc
  have HR := Lib.hid hR
  have HST := Lib.hid hst
  have HX := Lib.hid hV
  have HKN := Lib.hid hkN
  clear hst hkN hV hVn hR hrc
  go_wp2_with fail
  refine HRC.out.mono ?_
  rintro e w3 ⟨rfl, hb3⟩
  have h3 := h2.below hb3
  have c1 := h3.cell1
  go_wp2_with fail
  go_quiet (fail)
  go_wp2_with fail
  go_ret2
  exact ⟨N, by rw [HST.out, List.drop_drop], HKN.out, ret2_SI' (by rw [HR.out, HX.out]) rfl, _root_.Go.below_drewN (below_next hBB hb3) nq⟩
end Go.Proofs.YtnfccckodgknjaaGreatDoor

namespace Go.Proofs.YtnfccckodgknjaaGreatDoor
open Go.RowKit Go.Shelf Go.Lib
set_option maxHeartbeats 2000000
set_option maxRecDepth 100000

theorem enc_one (x : Nat) (c : UInt8) (hc : c.toNat < 128) : ((Utf8.encode (x : Int)).data.toList == [c]) = decide ((x : Int) = c.toNat) := by
  have hl : ∀ n : Nat, (if (if Utf8.valid (x : Int) = true then (x : Int).toNat else Utf8.runeError) < 128 then 1 else 2) ≤ n → True := fun _ _ => trivial
  by_cases h : x < 128
  · have v : Utf8.valid (x : Int) = true := by simp [Utf8.valid]; omega
    have e : (Utf8.encode (x : Int)).data.toList = [UInt8.ofNat x] := by simp [Utf8.encode, v, h]
    rw [e, Bool.eq_iff_iff]
    simp only [beq_iff_eq, decide_eq_true_eq, ← UInt8.toNat_inj, UInt8.toNat_ofNat', List.cons.injEq, and_true]
    omega
  · have e : 2 ≤ (Utf8.encode (x : Int)).data.toList.length := by
      unfold Utf8.encode
      by_cases v : Utf8.valid (x : Int) = true
      · simp only [v, if_true, Int.toNat_natCast]
        rw [if_neg h]
        split
        · simp
        · split <;> simp
      · simp only [v, Utf8.runeError]
        simp
    have n1 : (Utf8.encode (x : Int)).data.toList ≠ [c] := by
      intro h2
      rw [h2] at e
      simp at e
    rw [decide_eq_false (by omega), beq_eq_false_iff_ne]
    exact n1

theorem value1 (qb : Nat) (Q : ByteArray) (c : UInt8) (hQ : Q.data.toList = [c]) (hc : c.toNat < 128) (x : Nat) (w : World) (hcell : w.cell? ⟨qb, 0, none⟩ = some (.string Q)) :
    Calls Tryz.prog 186 #[.int .i32 x, .pointer (some ⟨qb, 0, none⟩)] w fun e w' => e = .returned (.bool (decide ((x : Int) = c.toNat))) ∧ Below w.heap.size w w' := by
  have he := enc_one x c hc
  rw [← hQ] at he
  obtain ⟨r, hr⟩ : ∃ r, r = decide ((x : Int) = c.toNat) := ⟨_, rfl⟩
  rw [← hr] at he ⊢
  have HE := Lib.hid he
  clear he hr hQ hc
  go_enter Tryz.func186, Tryz.ntmps186
  go_wp2_with fail
  go_ret
  exact ⟨ret_bool (by rw [ByteArray.toList_eq, ByteArray.toList_eq]; exact HE.out), Below.refl _ _⟩

theorem spacesE (b : Nat) (T : TypeId) (s : ByteArray) (k : Nat) (hk : k ≤ s.size) (hs : s.size ≤ 1000000000) (w : World) (h : At w b #[.string s, .int .i64 k] T s k) :
    Calls Tryz.prog 61 #[.pointer (some ⟨b, 0, none⟩)] w fun e w' => ∃ (N : Nat) (f : Bool), e = .returned (.bool f) ∧ f = decide (0 < N) ∧ s.data.toList.drop (k + N) = sk (s.data.toList.drop k) ∧ k + N ≤ s.size ∧
      At w' b #[.string s, .int .i64 ((k + N : Nat) : Int)] T s (k + N) ∧ But b w w' := by
  refine (curSpaces b _ T s k hk hs w h).mono ?_
  rintro e w' ⟨N, h1, h2, rfl, h3, h4⟩
  refine ⟨N, _, rfl, rfl, ?_, h2, h3, h4⟩
  unfold sk
  rw [List.drop_drop]
  have e : (qOf fun r => !spB r) = fun b => !spU b := rfl
  rw [e] at h1
  rw [h1]

theorem sees_qu {t : List UInt8} (h : false = seesB (fun r => quB r) t) : ∀ c r, t = c :: r → quU c = false := by
  rintro c r rfl
  rw [← q_qu]
  exact h.symm
theorem va_none_w {R : RefF} {res0 : Option (List UInt8 × List UInt8)} {s : ByteArray} {k k1 n : Nat} (h0 : res0 = vaL R (s.data.toList.drop k)) (hsk : s.data.toList.drop k1 = sk (s.data.toList.drop k))
    (hq : false = seesB (fun r => quB r) (s.data.toList.drop k1)) (hn : n = runN ewU (s.data.toList.drop k1)) (he : k1 + n = s.size) : res0 = none := by
  rw [h0]
  unfold vaL
  rw [← hsk]
  have hq' := sees_qu hq
  have hl : (s.data.toList.drop k1).length = s.size - k1 := by rw [List.length_drop, size_list]
  generalize s.data.toList.drop k1 = t at hq' hn hl
  cases t with
  | nil => rfl
  | cons c r =>
    simp only
    rw [hq' c r rfl, if_neg Bool.false_ne_true, ← hn, if_neg (by rw [hl]; omega)]
theorem va_some_w {R : RefF} {res0 : Option (List UInt8 × List UInt8)} {s V : ByteArray} {k k1 k7 n : Nat} (h0 : res0 = vaL R (s.data.toList.drop k)) (hsk : s.data.toList.drop k1 = sk (s.data.toList.drop k))
    (hq : false = seesB (fun r => quB r) (s.data.toList.drop k1)) (hn : n = runN ewU (s.data.toList.drop k1)) (hk : k7 = k1 + n) (hlt : k7 < s.size) (hV : V.data.toList = (s.data.toList.drop k1).take n) : res0 = some (res R V.data.toList, s.data.toList.drop k7) := by
  rw [h0, hk, ← List.drop_drop]
  unfold vaL
  rw [← hsk, hV]
  have hq' := sees_qu hq
  have hl : (s.data.toList.drop k1).length = s.size - k1 := by rw [List.length_drop, size_list]
  generalize s.data.toList.drop k1 = t at hq' hn hl
  cases t with
  | nil => simp at hl; omega
  | cons c r =>
    simp only
    rw [hq' c r rfl, if_neg Bool.false_ne_true, ← hn, if_pos (by rw [hl]; omega)]
theorem va_none_q {R : RefF} {res0 : Option (List UInt8 × List UInt8)} {s : ByteArray} {k k1 n : Nat} {c : UInt8} (h0 : res0 = vaL R (s.data.toList.drop k)) (hsk : s.data.toList.drop k1 = sk (s.data.toList.drop k))
    (hd : s.data.toList.drop k1 = c :: s.data.toList.drop (k1 + 1)) (hq : quU c = true) (hn : n = runN (fun b => b == c) (s.data.toList.drop (k1 + 1))) (he : k1 + 1 + n = s.size) : res0 = none := by
  rw [h0]
  unfold vaL
  rw [← hsk, hd]
  simp only
  rw [hq, if_pos rfl, ← hn, if_neg (by rw [List.length_drop, size_list]; omega)]
theorem va_some_q {R : RefF} {res0 : Option (List UInt8 × List UInt8)} {s V : ByteArray} {k k1 k7 n : Nat} {c : UInt8} (h0 : res0 = vaL R (s.data.toList.drop k)) (hsk : s.data.toList.drop k1 = sk (s.data.toList.drop k))
    (hd : s.data.toList.drop k1 = c :: s.data.toList.drop (k1 + 1)) (hq : quU c = true) (hn : n = runN (fun b => b == c) (s.data.toList.drop (k1 + 1))) (hk : k7 = k1 + 1 + n) (hlt : k7 < s.size) (hV : V.data.toList = (s.data.toList.drop (k1 + 1)).take n) :
    res0 = some (res R V.data.toList, s.data.toList.drop (k7 + 1)) := by
  rw [h0]
  unfold vaL
  rw [← hsk, hd]
  simp only
  rw [hq, if_pos rfl, ← hn, if_pos (by rw [List.length_drop, size_list]; omega), List.drop_drop, ← hV, hk, show k1 + 1 + n + 1 = k1 + 1 + (n + 1) by omega]
theorem va_pre_q {s Q : ByteArray} {k1 k7 n : Nat} {c : UInt8} (hQ : Q.data.toList = [c]) (_hd : s.data.toList.drop k1 = c :: s.data.toList.drop (k1 + 1)) (hn : n = runN (fun b => b == c) (s.data.toList.drop (k1 + 1))) (hk : k7 = k1 + 1 + n) (hlt : k7 < s.size) :
    Q.data.toList.isPrefixOf (s.data.toList.drop k7) = true := by
  rw [hQ, pre_head, hk, ← List.drop_drop]
  rcases runN_drop (fun b => b == c) (s.data.toList.drop (k1 + 1)) with h | ⟨b, t, h, hb⟩
  · have := List.drop_eq_nil_iff.1 h
    rw [List.length_drop, size_list] at this
    omega
  · rw [hn, h]
    simpa using hb

theorem untilL (g : Nat) (lb : Array Value) (eg : ∀ args w, (callFunc g args).run Tryz.prog w = .ok (.enter g args) w) (p : Nat → Bool) (H : Bool) (hH : ∀ r, 128 ≤ r → r ≤ 1114111 → p r = H) (q : UInt8 → Bool) (hq : qOf p = q)
    (b : Nat) (x : Value) (T : TypeId) (s : ByteArray) (k : Nat) (hk : k ≤ s.size) (hs : s.size ≤ 1000000000) (w : World) (hp : PredGrows Tryz.prog g lb p w) (h : At w b #[.string s, x] T s k) :
    Calls Tryz.prog 106 #[.pointer (some ⟨b, 0, none⟩), .func (.func g) #[] lb] w fun e w' => ∃ (N : Nat) (V : ByteArray), N = runN q (s.data.toList.drop k) ∧ k + N ≤ s.size ∧
      e = .returned (.string V) ∧ V.data.toList = (s.data.toList.drop k).take N ∧ V.size = N ∧ At w' b #[.string s, .int .i64 ((k + N : Nat) : Int)] T s (k + N) ∧ But b w w' := by
  subst hq
  refine (curUntil g lb eg p H hH b _ T s k hk hs w hp h).mono ?_
  rintro e w' ⟨N, h1, h2, rfl, h3, h4⟩
  exact ⟨N, _, h1, h2, rfl, ext_take s k N h2, by rw [ByteArray.size_extract]; omega, h3, h4⟩
theorem endedE (b : Nat) (c : Array Value) (T : TypeId) (s : ByteArray) (k : Nat) (hk : k ≤ s.size) (r : Bool) (hr : r = decide (k = s.size)) (w : World) (h : At w b c T s k) :
    Calls Tryz.prog 62 #[.pointer (some ⟨b, 0, none⟩)] w fun e w' => e = .returned (.bool r) ∧ Below w.heap.size w w' ∧ At w' b c T s k := by
  refine (curEnded b c T s k hk w h).mono ?_
  rintro e w' ⟨rfl, hb⟩
  exact ⟨by rw [hr], hb, h.below hb⟩
theorem boxed_below {w w' : World} {b : Nat} {T : TypeId} {v : Value} (h : Boxed w b T v) (hb : Below w.heap.size w w') : Boxed w' b T v := (hb.block b h.lt).trans h
theorem boxed_but {w w' : World} {b c : Nat} {T : TypeId} {v : Value} (h : Boxed w b T v) (hb : But c w w') (hne : b ≠ c) : Boxed w' b T v := (hb.block b h.lt (fun e => hne (by cases e; rfl))).trans h

theorem valueC (lg : List UInt8 → Nat × List UInt8) (HLG : Hid (LgOk lg)) (s : ByteArray) (a : Int) (m : Int) (hs : s.size ≤ 1000000) (w : World) (hc : CtlW w) (hm : w.cell? ⟨1, 0, none⟩ = some (.int .i64 m)) :
    Calls Tryz.prog 130 #[.string s, .int .i64 a] w fun e w' => ∃ (V : ByteArray) (cl : Bool) (N : Nat), e = .returned (.tuple #[.string V, .bool cl, .int .i64 N]) ∧ clip s a ≤ N ∧ N ≤ s.size ∧
      ((cl = true ∧ vaL (refL lg true) (tlS s a) = some (V.data.toList, s.data.toList.drop N)) ∨ (cl = false ∧ V = ⟨#[]⟩ ∧ N = s.size ∧ vaL (refL lg true) (tlS s a) = none)) ∧ Below w.heap.size w w' := by
  have HC := Lib.hid (cursorAt s a (by unfold maxLen; omega))
  have HM := Lib.hid hm
  have HCt := Lib.hid hc
  have hk := clip_le s a
  unfold tlS
  generalize clip s a = k at HC hk ⊢
  have HK := Lib.hid hk
  have HS := Lib.hid hs
  obtain ⟨res0, hres⟩ : ∃ r, r = vaL (refL lg true) (s.data.toList.drop k) := ⟨_, rfl⟩
  rw [← hres]
  have HRES := Lib.hid hres
  clear hm hk hs hc hres
  go_enter Tryz.func130, Tryz.ntmps130
  go_wp2_with fail
  refine (HC.out _).mono ?_
  rintro e w1 ⟨rfl, hb1⟩
  have hat : At (w1.alloc (.cells #[.string s, .int .i64 k] 79)) w1.heap.size #[.string s, .int .i64 k] 79 s k := at_new rfl
  have hB : Below w.heap.size w (w1.alloc (.cells #[.string s, .int .i64 k] 79)) := below_alloc hb1 _
  have hle : w.heap.size ≤ w1.heap.size := hb1.size
  have HSp := Lib.hid (spacesE w1.heap.size 79 s k HK.out (by have := HS.out; omega) _ hat)
  clear hat
  go_wp2_with fail
  refine HSp.out.mono ?_
  rintro e w2 ⟨N1, f1, rfl, _, hsk, hk1, h2, hB2⟩
  have hBB : Below w.heap.size w w2 := below_but hB hB2 hle
  obtain ⟨k1, hk1e⟩ : ∃ k1, k1 = k + N1 := ⟨_, rfl⟩
  rw [← hk1e] at hsk hk1 h2
  have HKK := Lib.hid (show k ≤ k1 by omega)
  have HSK := Lib.hid hsk
  have HK1 := Lib.hid hk1
  clear hsk hk1 hk1e
  go_wp2_with fail
  have hq3 : Boxed (w2.alloc (.cells #[.string ⟨#[]⟩] 9)) w2.heap.size 9 (.string ⟨#[]⟩) := Boxed.new _ _ _
  have hb3 : Below w2.heap.size w2 (w2.alloc (.cells #[.string ⟨#[]⟩] 9)) := below_alloc (Below.refl _ _) _
  have h3 := h2.below hb3
  have hqb : w2.heap.size ≠ w1.heap.size := by have := h2.lt; omega
  have hql : w.heap.size ≤ w2.heap.size := hBB.size
  have HSe := Lib.hid (seesE2 185 (fun args w => enters_of Tryz.func185 (by kernel_rfl) rfl args w) (fun r => quB r) w1.heap.size 79 s k1 HK1.out grows_quote _ h3)
  obtain ⟨q, hq⟩ : ∃ q, q = seesB (fun r => quB r) (s.data.toList.drop k1) := ⟨_, rfl⟩
  rw [← hq] at HSe
  have HQ := Lib.hid hq
  have HBB3 := Lib.hid (below_next hBB hb3)
  have HQ3 := Lib.hid hq3
  clear hq h2 h3 hq3
  cases q
  · -- no quote
    go_wp2_with fail
    refine HSe.out.mono ?_
    rintro e w4 ⟨rfl, hb4, h4⟩
    have HU := Lib.hid (untilE 132 (fun args w => enters_of Tryz.func132 (by kernel_rfl) rfl args w) (fun r => ewB r) false hi_word ewU q_ew
      w1.heap.size _ 79 s k1 HK1.out (by have := HS.out; omega) w4 (grows_word _) h4)
    have hq4 := boxed_below HQ3.out hb4
    clear h4
    go_wp2_with fail
    refine HU.out.mono ?_
    rintro e w7 ⟨n, V, hn, hkn, rfl, hV, hVz, h7, hB7⟩
    have hq7 := boxed_but hq4 hB7 hqb
    have hBB7 : Below w.heap.size w w7 := below_but (below_next HBB3.out hb4) hB7 hle
    obtain ⟨Q, hQ⟩ : ∃ Q : ByteArray, Q = ⟨#[]⟩ := ⟨_, rfl⟩
    rw [← hQ] at hq7
    obtain ⟨k7, hk7⟩ : ∃ k7, k7 = k1 + n := ⟨_, rfl⟩
    rw [← hk7] at hkn h7
    have HK7 := Lib.hid hkn
    have HKK7 := Lib.hid (show k ≤ k7 by have := HKK.out; omega)
    have HQZ := Lib.hid (show Q.size ≤ 0 by rw [hQ]; decide)
    have HN := Lib.hid hn
    have HX := Lib.hid hV
    have HVZ := Lib.hid (show V.size ≤ s.size by omega)
    have HQE := Lib.hid hQ
    have HK7E := Lib.hid hk7
    clear hn hkn hV hVz hQ hk7 hq4
    -- the end, and the quote
    have HE7 := Lib.hid (endedE w1.heap.size _ 79 s k7 HK7.out (decide (k7 = s.size)) rfl w7 h7)
    clear h7
    by_cases hend : k7 = s.size
    · rw [decide_eq_true hend] at HE7
      have hr : res0 = none := va_none_w HRES.out HSK.out HQ.out HN.out (by have := HK7E.out; omega)
      have HR := Lib.hid hr
      have HEND := Lib.hid hend
      clear hend hr
      go_wp2_with fail
      refine HE7.out.mono ?_
      rintro e w8 ⟨rfl, hb8, h8⟩
      have c1 := h8.cell1
      go_wp2_with fail
      go_quiet (fail)
      go_wp2_with fail
      go_ret3
      exact ⟨_, _, k7, rfl, HKK7.out, HK7.out, .inr ⟨rfl, rfl, HEND.out, HR.out⟩, _root_.Go.below_drewN (below_next hBB7 hb8) nq⟩
    · rw [decide_eq_false hend] at HE7
      have hk7lt : k7 < s.size := by have := HK7.out; omega
      obtain ⟨qn, hqn⟩ : ∃ qn, qn = Q.size := ⟨_, rfl⟩
      have hk8 : k7 + qn ≤ s.size := by have := HQZ.out; omega
      have hpre : Q.data.toList.isPrefixOf (s.data.toList.drop k7) = true := by rw [HQE.out]; rfl
      have hr : res0 = some (res (refL lg true) V.data.toList, s.data.toList.drop (k7 + qn)) := by
        have hq0 : qn = 0 := by have := HQZ.out; omega
        rw [hq0, Nat.add_zero]
        exact va_some_w HRES.out HSK.out HQ.out HN.out HK7E.out hk7lt HX.out
      have HPRE := Lib.hid hpre
      have HR := Lib.hid hr
      have HQN := Lib.hid hqn
      have HK8 := Lib.hid hk8
      clear hend hpre hr hqn hk7lt hk8
      go_wp2_with fail
      refine HE7.out.mono ?_
      rintro e w8 ⟨rfl, hb8, h8⟩
      have hq8 := boxed_below hq7 hb8
      have c8 := hq8.cell
      have HT := Lib.hid (tookE w1.heap.size _ 79 s Q k7 qn HQN.out.symm HK7.out (by have := HS.out; omega) w8 h8)
      clear h8 hq7
      go_wp2_with fail
      refine HT.out.mono ?_
      rintro e w9 (⟨rfl, _, _, h9, hB9⟩ | ⟨rfl, hn, _, _⟩)
      · have hBB9 : Below w.heap.size w w9 := below_but (below_next hBB7 hb8) hB9 hle
        have HV7 := Lib.hid (show V.size ≤ 1000000 by have := HS.out; have := HVZ.out; omega)
        have g1 := h9.cell1
        have gl := h9.lt
        obtain ⟨R, hR⟩ : ∃ R, R = bl (res (refL lg true) V.data.toList) := ⟨_, rfl⟩
        have HRc : Hid (∀ w', (w'.cell? ⟨w1.heap.size, 1, none⟩ = some (.int .i64 ((k7 + qn : Nat) : Int)) ∧ w1.heap.size < w'.heap.size ∧ Below w9.heap.size w9 w') → Calls Tryz.prog 121 #[.string V, .bool true] w' fun e w2 => e = .returned (.string R) ∧
            w2.cell? ⟨w1.heap.size, 1, none⟩ = some (.int .i64 ((k7 + qn : Nat) : Int)) ∧ w1.heap.size < w2.heap.size ∧ Below w9.heap.size w9 w2) := Lib.hid (by
          rintro w' ⟨y1, y2, y3⟩
          have hBx := below_next hBB9 y3
          refine (resolvedC lg HLG V true m HV7.out w' (HCt.out.below hBx) (carry HM.out hBx)).mono ?_
          rintro e wx ⟨rfl, hbx⟩
          exact ⟨by rw [hR], (hbx.cell (p := ⟨w1.heap.size, 1, none⟩) y2).trans y1, Nat.lt_of_lt_of_le y2 hbx.size, below_next y3 hbx⟩)
        have HR2 := Lib.hid hR
        clear h9 hR
        go_wp2_with fail
        go_region_held3 (fun w' => w'.cell? ⟨w1.heap.size, 1, none⟩ = some (.int .i64 ((k7 + qn : Nat) : Int)) ∧ w1.heap.size < w'.heap.size ∧ Below w9.heap.size w9 w')
          (first | exact ⟨g1, gl, Below.drew (Below.refl _ _)⟩ | exact ⟨by assumption, by assumption, by assumption⟩ | go_keep)
          (first | (go_at_call 121; refine (HRc.out _ (by first | assumption | exact ⟨by assumption, by assumption, by first | assumption | exact Below.drew (by assumption)⟩)).mono ?_; rintro e wx ⟨rfl, d1, d2, d3⟩))
        all_goals
          go_wp2_with fail
          go_ret3
          exact ⟨R, true, k7 + qn, rfl, by have := HKK7.out; omega, HK8.out, .inl ⟨rfl, by rw [HR.out, HR2.out]; rfl⟩, below_next hBB9 d3⟩
      · rw [HPRE.out] at hn
        cases hn
  · -- a quote
    have hk1s : k1 + 1 ≤ s.size := by
      have hq := HQ.out
      have := HK1.out
      rcases Nat.lt_or_ge k1 s.size with hl | hl
      · exact hl
      · rw [drop_end s k1 hl] at hq; cases hq
    have HK1S := Lib.hid hk1s
    clear hk1s
    go_wp2_with fail
    refine HSe.out.mono ?_
    rintro e w4 ⟨rfl, hb4, h4⟩
    have hq4 := boxed_below HQ3.out hb4
    have HTk := Lib.hid (takeE w1.heap.size _ 79 s k1 1 HK1S.out (by have := HS.out; omega) w4 h4)
    clear h4
    go_wp2_with fail
    refine HTk.out.mono ?_
    rintro e w5 ⟨Q, rfl, hQ, hQz, h5, hB5⟩
    have hq5 := boxed_but hq4 hB5 hqb
    have c5 := hq5.cell
    have f5 := hq5.frozen
    have hq6 := hq5.set (.string Q)
    have h6 : At (w5.setCell ⟨w2.heap.size, 0, none⟩ (.string Q)) w1.heap.size #[.string s, .int .i64 ((k1 + 1 : Nat) : Int)] 79 s (k1 + 1) := h5.same (Below.heap_setCell _ _ _ _ (fun e => hqb e.symm))
    have hBB6 : Below w.heap.size w (w5.setCell ⟨w2.heap.size, 0, none⟩ (.string Q)) := (below_but (below_next HBB3.out hb4) hB5 hle).setCell (p := ⟨w2.heap.size, 0, none⟩) hql _
    have hd := drop_byte s k1 HK1S.out
    obtain ⟨c, hc⟩ : ∃ c, c = s[k1]'HK1S.out := ⟨_, rfl⟩
    rw [← hc] at hd
    rw [hd] at hQ
    have hQ1 : Q.data.toList = [c] := by rw [hQ]; rfl
    have hqc : quU c = true := by
      have := HQ.out
      rw [hd] at this
      rw [← q_qu]
      exact this.symm
    have hc128 : c.toNat < 128 := by
      unfold quU at hqc
      rw [Bool.or_eq_true, beq_iff_eq, beq_iff_eq] at hqc
      rcases hqc with rfl | rfl <;> decide
    have hpg : PredGrows Tryz.prog 186 #[.pointer (some ⟨w2.heap.size, 0, none⟩)] (fun r => decide ((r : Int) = c.toNat)) (w5.setCell ⟨w2.heap.size, 0, none⟩ (.string Q)) :=
      fun W x _ hW => value1 w2.heap.size Q c hQ1 hc128 x W (boxed_below hq6 hW).cell
    have HU := Lib.hid (untilL 186 #[.pointer (some ⟨w2.heap.size, 0, none⟩)] (fun args w => enters_of Tryz.func186 (by kernel_rfl) rfl args w) (fun r => decide ((r : Int) = c.toNat)) false (fun r h _ => decide_eq_false (by omega)) (fun b => b == c) (q_one _ c rfl)
      w1.heap.size _ 79 s (k1 + 1) HK1S.out (by have := HS.out; omega) _ hpg h6)
    have HD := Lib.hid hd
    have HQ1 := Lib.hid hQ1
    have HQC := Lib.hid hqc
    have HQZ := Lib.hid (show Q.size ≤ 1 by omega)
    have HQ6 := Lib.hid hq6
    clear hQ hQz h5 hpg h6 hd hc hQ1 hqc hc128 hq6 hq4
    go_wp2_with fail
    refine HU.out.mono ?_
    rintro e w7 ⟨n, V, hn, hkn, rfl, hV, hVz, h7, hB7⟩
    have hq7 := boxed_but HQ6.out hB7 hqb
    have hBB7 : Below w.heap.size w w7 := below_but hBB6 hB7 hle
    obtain ⟨k7, hk7⟩ : ∃ k7, k7 = k1 + 1 + n := ⟨_, rfl⟩
    rw [← hk7] at hkn h7
    have HK7 := Lib.hid hkn
    have HKK7 := Lib.hid (show k ≤ k7 by have := HKK.out; omega)
    have HN := Lib.hid hn
    have HX := Lib.hid hV
    have HVZ := Lib.hid (show V.size ≤ s.size by omega)
    have HK7E := Lib.hid hk7
    clear hn hkn hV hVz hk7 c5 f5 hq5
    -- the end, and the quote
    have HE7 := Lib.hid (endedE w1.heap.size _ 79 s k7 HK7.out (decide (k7 = s.size)) rfl w7 h7)
    clear h7
    by_cases hend : k7 = s.size
    · rw [decide_eq_true hend] at HE7
      have hr : res0 = none := va_none_q HRES.out HSK.out HD.out HQC.out HN.out (by have := HK7E.out; omega)
      have HR := Lib.hid hr
      have HEND := Lib.hid hend
      clear hend hr
      go_wp2_with fail
      refine HE7.out.mono ?_
      rintro e w8 ⟨rfl, hb8, h8⟩
      have c1 := h8.cell1
      go_wp2_with fail
      go_quiet (fail)
      go_wp2_with fail
      go_ret3
      exact ⟨_, _, k7, rfl, HKK7.out, HK7.out, .inr ⟨rfl, rfl, HEND.out, HR.out⟩, _root_.Go.below_drewN (below_next hBB7 hb8) nq⟩
    · rw [decide_eq_false hend] at HE7
      have hk7lt : k7 < s.size := by have := HK7.out; omega
      obtain ⟨qn, hqn⟩ : ∃ qn, qn = Q.size := ⟨_, rfl⟩
      have hk8 : k7 + qn ≤ s.size := by have := HQZ.out; omega
      have hpre : Q.data.toList.isPrefixOf (s.data.toList.drop k7) = true := va_pre_q HQ1.out HD.out HN.out HK7E.out hk7lt
      have hr : res0 = some (res (refL lg true) V.data.toList, s.data.toList.drop (k7 + qn)) := by
        have hq1 : qn = 1 := by rw [hqn, ← size_list, HQ1.out]; rfl
        rw [hq1]
        exact va_some_q HRES.out HSK.out HD.out HQC.out HN.out HK7E.out hk7lt HX.out
      have HPRE := Lib.hid hpre
      have HR := Lib.hid hr
      have HQN := Lib.hid hqn
      have HK8 := Lib.hid hk8
      clear hend hpre hr hqn hk7lt hk8
      go_wp2_with fail
      refine HE7.out.mono ?_
      rintro e w8 ⟨rfl, hb8, h8⟩
      have hq8 := boxed_below hq7 hb8
      have c8 := hq8.cell
      have HT := Lib.hid (tookE w1.heap.size _ 79 s Q k7 qn HQN.out.symm HK7.out (by have := HS.out; omega) w8 h8)
      clear h8 hq7
      go_wp2_with fail
      refine HT.out.mono ?_
      rintro e w9 (⟨rfl, _, _, h9, hB9⟩ | ⟨rfl, hn, _, _⟩)
      · have hBB9 : Below w.heap.size w w9 := below_but (below_next hBB7 hb8) hB9 hle
        have HV7 := Lib.hid (show V.size ≤ 1000000 by have := HS.out; have := HVZ.out; omega)
        have g1 := h9.cell1
        have gl := h9.lt
        obtain ⟨R, hR⟩ : ∃ R, R = bl (res (refL lg true) V.data.toList) := ⟨_, rfl⟩
        have HRc : Hid (∀ w', (w'.cell? ⟨w1.heap.size, 1, none⟩ = some (.int .i64 ((k7 + qn : Nat) : Int)) ∧ w1.heap.size < w'.heap.size ∧ Below w9.heap.size w9 w') → Calls Tryz.prog 121 #[.string V, .bool true] w' fun e w2 => e = .returned (.string R) ∧
            w2.cell? ⟨w1.heap.size, 1, none⟩ = some (.int .i64 ((k7 + qn : Nat) : Int)) ∧ w1.heap.size < w2.heap.size ∧ Below w9.heap.size w9 w2) := Lib.hid (by
          rintro w' ⟨y1, y2, y3⟩
          have hBx := below_next hBB9 y3
          refine (resolvedC lg HLG V true m HV7.out w' (HCt.out.below hBx) (carry HM.out hBx)).mono ?_
          rintro e wx ⟨rfl, hbx⟩
          exact ⟨by rw [hR], (hbx.cell (p := ⟨w1.heap.size, 1, none⟩) y2).trans y1, Nat.lt_of_lt_of_le y2 hbx.size, below_next y3 hbx⟩)
        have HR2 := Lib.hid hR
        clear h9 hR
        go_wp2_with fail
        go_region_held3 (fun w' => w'.cell? ⟨w1.heap.size, 1, none⟩ = some (.int .i64 ((k7 + qn : Nat) : Int)) ∧ w1.heap.size < w'.heap.size ∧ Below w9.heap.size w9 w')
          (first | exact ⟨g1, gl, Below.drew (Below.refl _ _)⟩ | exact ⟨by assumption, by assumption, by assumption⟩ | go_keep)
          (first | (go_at_call 121; refine (HRc.out _ (by first | assumption | exact ⟨by assumption, by assumption, by first | assumption | exact Below.drew (by assumption)⟩)).mono ?_; rintro e wx ⟨rfl, d1, d2, d3⟩))
        all_goals
          go_wp2_with fail
          go_ret3
          exact ⟨R, true, k7 + qn, rfl, by have := HKK7.out; omega, HK8.out, .inl ⟨rfl, by rw [HR.out, HR2.out]; rfl⟩, below_next hBB9 d3⟩
      · rw [HPRE.out] at hn
        cases hn
end Go.Proofs.YtnfccckodgknjaaGreatDoor

namespace Go.Proofs.YtnfccckodgknjaaGreatDoor
open Go.RowKit Go.Shelf Go.Lib
set_option maxHeartbeats 2000000
set_option maxRecDepth 100000

def eqB (r : Int) : Bool := enB r || decide (r = 61)
theorem attr1 (r : Int) (w : World) : Calls Tryz.prog 128 #[.int .i32 r] w fun e w' => e = .returned (.bool (eqB r)) ∧ Below w.heap.size w w' := by
  have HN := Lib.hid (endsName r)
  have HE := Lib.hid (isEquals r)
  unfold eqB
  go_enter Tryz.func128, Tryz.ntmps128
  generalize decide (r = 61) = y at HE ⊢
  cases hx : enB r
  all_goals
    rw [hx] at HN
    clear hx
    go_wp2_with fail
    refine (HN.out _).mono ?_
    rintro e w2 ⟨rfl, hb2⟩
    go_wp2_with fail
  · refine (HE.out _).mono ?_
    rintro e w3 ⟨rfl, hb3⟩
    go_wp2_with fail
    go_ret
    exact ⟨rfl, below_next hb2 hb3⟩
  · go_ret
    exact ⟨rfl, hb2⟩
theorem grows_attr (w : World) : PredGrows Tryz.prog 128 #[] (fun r => eqB r) w := fun W x _ _ => attr1 x W
theorem hi_attr : ∀ r : Nat, 128 ≤ r → r ≤ 1114111 → eqB r = false := fun r h h2 => by unfold eqB; rw [hi_name r h h2, decide_eq_false (by omega)]; rfl
theorem q_attr : (qOf fun r => eqB r) = eqU := by
  funext b
  have h1 : decide ((b.toNat : Int) = 61) = (b == 61) := by rw [Bool.eq_iff_iff]; simp [← UInt8.toNat_inj]; omega
  have h2 : enB b.toNat = enU b := congrFun q_en b
  show (enB (b.toNat : Int) || decide ((b.toNat : Int) = 61)) = _
  unfold eqU
  rw [h1, h2]

theorem but_new {w w1 : World} {b a : Nat} (h : But b w w1) (ha : w.heap.size ≤ a) (o : Nat) (v : Value) : But b w (w1.setCell ⟨a, o, none⟩ v) :=
  ⟨h.os, h.tape, h.output, Nat.le_trans h.size (by simp [World.setCell]), fun j hj hb => (Below.heap_setCell _ _ _ _ (fun e => by have e' : j = a := e; omega)).trans (h.block j hj hb)⟩
theorem heap_cell {w : World} {b : Nat} {c : Array Value} {T : TypeId} {fz : Nat × Nat} (h : w.heap[b]? = some (.cells c T fz)) (o : Nat) : w.cell? ⟨b, o, none⟩ = c[o]? := by simp [World.cell?, h]
theorem heap_frozen {w : World} {b : Nat} {c : Array Value} {T : TypeId} (h : w.heap[b]? = some (.cells c T (0, 0))) (o : Nat) : w.frozen? ⟨b, o, none⟩ = false := by simp [World.frozen?, h]
theorem heap_but {w w' : World} {b c : Nat} {o : Obj} (h : w.heap[b]? = some o) (hb : But c w w') (hne : b ≠ c) : w'.heap[b]? = some o := (hb.block b (Array.getElem?_eq_some_iff.1 h).1 (fun e => hne (by cases e; rfl))).trans h
theorem heap_below {w w' : World} {b : Nat} {o : Obj} (h : w.heap[b]? = some o) (hb : Below w.heap.size w w') : w'.heap[b]? = some o := (hb.block b (Array.getElem?_eq_some_iff.1 h).1).trans h

/-- What attribute has read behind k: the name; whether there is a value, and what follows. -/
def AtP (R : RefF) (s : ByteArray) (k : Nat) (nm V : ByteArray) (cm : Bool) (N : Nat) : Prop :=
  ∃ b r, s.data.toList.drop k = b :: r ∧ nm.data.toList = atName b r ∧
    (((atRest r).head? ≠ some 61 ∧ cm = true ∧ V = ⟨#[]⟩ ∧ s.data.toList.drop N = atRest r) ∨
     ((atRest r).head? = some 61 ∧ ((cm = true ∧ vaL R ((atRest r).drop 1) = some (V.data.toList, s.data.toList.drop N)) ∨ (cm = false ∧ vaL R ((atRest r).drop 1) = none ∧ N = s.size))))

theorem attributeC (lg : List UInt8 → Nat × List UInt8) (HLG : Hid (LgOk lg)) (b : Nat) (T : TypeId) (s : ByteArray) (k : Nat) (hk : k < s.size) (hs : s.size ≤ 1000000) (m : Int) (w : World) (hc : CtlW w) (hm : w.cell? ⟨1, 0, none⟩ = some (.int .i64 m)) (h : At w b #[.string s, .int .i64 k] T s k) :
    Calls Tryz.prog 64 #[.pointer (some ⟨b, 0, none⟩)] w fun e w' => ∃ (nm V : ByteArray) (cm : Bool) (N : Nat), e = .returned (.tuple #[.agg #[.int .i64 0, .string nm, .string V], .bool cm]) ∧ k < N ∧ N ≤ s.size ∧ AtP (refL lg true) s k nm V cm N ∧
      At w' b #[.string s, .int .i64 N] T s N ∧ But b w w' := by
  have HS := Lib.hid hs
  have HK := Lib.hid hk
  have HM := Lib.hid hm
  have HC := Lib.hid hc
  have HAT0 := Lib.hid h
  have hbl := h.lt
  have hd := drop_byte s k hk
  obtain ⟨x, hx⟩ : ∃ x, x = s[k]'hk := ⟨_, rfl⟩
  rw [← hx] at hd
  have HD := Lib.hid hd
  clear hs hk hm hc hx hd
  have HW := Lib.hid (fun W (hW : W = w.alloc (.cells #[.int .i64 0, .string ⟨#[]⟩, .string ⟨#[]⟩] 31)) => show At W b #[.string s, .int .i64 k] T s k ∧ W.heap[w.heap.size]? = some (.cells #[.int .i64 0, .string ⟨#[]⟩, .string ⟨#[]⟩] 31 (0, 0)) by
    subst hW
    exact ⟨HAT0.out.below (below_alloc (Below.refl _ _) _), by show (w.heap.push _)[w.heap.size]? = _; exact Array.getElem?_push_size⟩)
  obtain ⟨h1, ha1⟩ := HW.out _ rfl
  have HTk := Lib.hid (takeE b _ T s k 1 (by have := HK.out; omega) (by have := HS.out; omega) _ h1)
  have HA1 := Lib.hid ha1
  clear h1 h ha1
  go_enter Tryz.func64, Tryz.ntmps64
  go_wp2_with fail
  refine HTk.out.mono ?_
  rintro e w2 ⟨V2, rfl, hV2, hz2, h2, hB2⟩
  have hab : w.heap.size ≠ b := by omega
  have ha2 : w2.heap[w.heap.size]? = some (.cells #[.int .i64 0, .string ⟨#[]⟩, .string ⟨#[]⟩] 31 (0, 0)) := (hB2.block _ (by simp) (fun e => hab (by cases e; rfl))).trans HA1.out
  have HU := Lib.hid (untilE 128 (fun args w => enters_of Tryz.func128 (by kernel_rfl) rfl args w) (fun r => eqB r) false hi_attr eqU q_attr
    b _ T s (k + 1) (by have := HK.out; omega) (by have := HS.out; omega) w2 (grows_attr _) h2)
  have hz2' : V2.size ≤ 1 := by omega
  have HV2 := Lib.hid hV2
  have HA2 := Lib.hid ha2
  clear h2 hz2 hV2 ha2
  go_wp2_with fail
  refine HU.out.mono ?_
  rintro e w3 ⟨n, V3, hn, hkn, rfl, hV3, hz3, h3, hB3⟩
  have ha3 := (hB3.block _ (Array.getElem?_eq_some_iff.1 HA2.out).1 (fun e => hab (by cases e; rfl))).trans HA2.out
  have hz3' : V3.size ≤ 1000000 := by have := HS.out; omega
  have HN := Lib.hid hn
  have HKN := Lib.hid hkn
  have HV3 := Lib.hid hV3
  have HA3 := Lib.hid ha3
  have H3 := Lib.hid h3
  clear hn hkn hV3 hz3 ha3 h3
  go_wp2_with fail
  generalize hPn : V2 ++ V3 = Pn
  have hPz : Pn.size ≤ 1000001 := by rw [← hPn, ByteArray.size_append]; omega
  have hPl : Pn.data.toList = x :: (s.data.toList.drop (k + 1)).take n := by
    rw [← hPn, ByteArray.data_append, Array.toList_append, HV2.out, HV3.out, HD.out]
    rfl
  have HPL := Lib.hid hPl
  have hB3' : But b w w3 := (But.of_below (below_alloc (Below.refl _ _) _)).trans (hB2.trans hB3)
  have HB3 := Lib.hid hB3'
  have hm3 := ml_but HM.out HAT0.out hB3'
  have HKe := Lib.hid (keptE m Pn (by omega) w3 hm3)
  clear hPn hPl hm3 hB3' hB2 hB3
  go_wp2_with fail
  refine HKe.out.mono ?_
  rintro e w4 ⟨V4, rfl, hV4, hz4, hb4⟩
  have HLo := Lib.hid (lowerE V4 (by omega) w4)
  have HV4 := Lib.hid hV4
  clear hV4 hz4
  go_wp2_with fail
  refine HLo.out.mono ?_
  rintro e w5 ⟨nm, rfl, hnm, hnz, hb5⟩
  have hbb5 := below_next hb4 hb5
  have h5 := H3.out.below hbb5
  have ha5 := (hbb5.block _ (Array.getElem?_eq_some_iff.1 HA3.out).1).trans HA3.out
  have ca0 : w5.cell? ⟨w.heap.size, 0, none⟩ = some (.int .i64 0) := by simp [World.cell?, ha5]
  have ca1 : w5.cell? ⟨w.heap.size, 1, none⟩ = some (.string ⟨#[]⟩) := by simp [World.cell?, ha5]
  have ca2 : w5.cell? ⟨w.heap.size, 2, none⟩ = some (.string ⟨#[]⟩) := by simp [World.cell?, ha5]
  have fa1 : w5.frozen? ⟨w.heap.size, 1, none⟩ = false := by simp [World.frozen?, ha5]
  have HNM := Lib.hid hnm
  have H5 := Lib.hid h5
  have HA5 := Lib.hid ha5
  have HBB5 := Lib.hid hbb5
  have hal : w.heap.size < w5.heap.size := (Array.getElem?_eq_some_iff.1 ha5).1
  clear hnm hnz h5 ha5 hbb5 hb4 hb5
  go_wp2_with fail
  obtain ⟨w6, hw6⟩ : ∃ w6, w6 = w5.setCell ⟨w.heap.size, 1, none⟩ (.string nm) := ⟨_, rfl⟩
  rw [← hw6]
  have h6 : At w6 b #[.string s, .int .i64 ((k + 1 + n : Nat) : Int)] T s (k + 1 + n) := by rw [hw6]; exact H5.out.same (Below.heap_setCell _ _ _ _ (fun e => hab e.symm))
  have ha6 : w6.heap[w.heap.size]? = some (.cells #[.int .i64 0, .string nm, .string ⟨#[]⟩] 31 (0, 0)) := by rw [hw6]; exact heap_set HA5.out 1 _
  have hb6 : But b w w6 := by rw [hw6]; exact but_new (HB3.out.trans (But.of_below HBB5.out)) (Nat.le_refl _) _ _
  have HSp := Lib.hid (spacesE b T s (k + 1 + n) HKN.out (by have := HS.out; omega) w6 h6)
  have HA6 := Lib.hid ha6
  have HB6 := Lib.hid hb6
  clear hw6 h6 ha6 hb6 ca0 ca1 ca2 fa1 hal
  go_wp2_with fail
  refine HSp.out.mono ?_
  rintro e w7 ⟨n2, f2, rfl, _, hsk, hk2, h7, hB7⟩
  have ha7 := heap_but HA6.out hB7 hab
  have hb7 := HB6.out.trans hB7
  have HT := Lib.hid (tookE b _ T s ⟨#[61]⟩ (k + 1 + n + n2) 1 rfl hk2 (by have := HS.out; omega) w7 h7)
  have HSK := Lib.hid hsk
  have HK2 := Lib.hid hk2
  have HA7 := Lib.hid ha7
  have HB7 := Lib.hid hb7
  have hrest : atRest (s.data.toList.drop (k + 1)) = s.data.toList.drop (k + 1 + n + n2) := by
    unfold atRest
    rw [hsk, HN.out, List.drop_drop]
  have hname : nm.data.toList = atName x (s.data.toList.drop (k + 1)) := by
    rw [HNM.out, HV4.out, HPL.out]
    unfold atName
    rw [HN.out]
  have HREST := Lib.hid hrest
  have HNAME := Lib.hid hname
  clear hsk hk2 h7 ha7 hb7 hrest hname hB7
  go_wp2_with fail
  refine HT.out.mono ?_
  rintro e w8 (⟨rfl, hp, hkp, h8, hB8⟩ | ⟨rfl, hp, h8, hB8⟩)
  · have ha8 := heap_but HA7.out hB8 hab
    have hb8 := HB7.out.trans hB8
    have HP := Lib.hid hp
    have HKP := Lib.hid hkp
    have ca0 : w8.cell? ⟨w.heap.size, 0, none⟩ = some (.int .i64 0) := heap_cell ha8 0
    have ca1 : w8.cell? ⟨w.heap.size, 1, none⟩ = some (.string nm) := heap_cell ha8 1
    have ca2 : w8.cell? ⟨w.heap.size, 2, none⟩ = some (.string ⟨#[]⟩) := heap_cell ha8 2
    have fa0 := heap_frozen ha8 0
    have fa1 := heap_frozen ha8 1
    have fa2 := heap_frozen ha8 2
    have cb0 := h8.cell0
    have cb1 := h8.cell1
    have fb1 := h8.frozen 1
    have hcl : clip s ((k + 1 + n + n2 + 1 : Nat) : Int) = k + 1 + n + n2 + 1 := clip_nat s _ hkp
    have htl : tlS s ((k + 1 + n + n2 + 1 : Nat) : Int) = s.data.toList.drop (k + 1 + n + n2 + 1) := tlS_nat s _ hkp
    have HVl : Hid (∀ W, Below w8.heap.size w8 W → Calls Tryz.prog 130 #[.string s, .int .i64 ((k + 1 + n + n2 + 1 : Nat) : Int)] W fun e w' => ∃ (V : ByteArray) (cl : Bool) (N : Nat), e = .returned (.tuple #[.string V, .bool cl, .int .i64 N]) ∧ k + 1 + n + n2 + 1 ≤ N ∧ N ≤ s.size ∧
        ((cl = true ∧ vaL (refL lg true) (s.data.toList.drop (k + 1 + n + n2 + 1)) = some (V.data.toList, s.data.toList.drop N)) ∨ (cl = false ∧ V = ⟨#[]⟩ ∧ N = s.size ∧ vaL (refL lg true) (s.data.toList.drop (k + 1 + n + n2 + 1)) = none)) ∧ Below w8.heap.size w8 w') := Lib.hid (by
      intro W hW
      have hbW : But b w W := hb8.trans (But.of_below hW)
      have hv := valueC lg HLG s ((k + 1 + n + n2 + 1 : Nat) : Int) m HS.out W (ctl_but HC.out HAT0.out hbW) (ml_but HM.out HAT0.out hbW)
      rw [hcl, htl] at hv
      refine hv.mono ?_
      rintro e w' ⟨V, cl, N, h1, h2, h3, h4, h5⟩
      exact ⟨V, cl, N, h1, h2, h3, h4, below_next hW h5⟩)
    have HB8 := Lib.hid hb8
    have HA8 := Lib.hid ha8
    have H8 := Lib.hid h8
    clear hcl htl ha8 h8 hb8 hp hkp hB8
    go_wp2_with fail
    go_region_with (go_at_call 130; refine (HVl.out _ (by first | exact Below.drew (Below.refl _ _) | exact Below.refl _ _)).mono ?_; rintro e w9 ⟨V, cl, N, rfl, hN1, hN2, hor, hb9⟩; have HOR := Lib.hid hor; have HN1 := Lib.hid hN1; have HN2 := Lib.hid hN2; have ha9 := heap_below HA8.out hb9; have h9 := H8.out.below hb9; have da0 : w9.cell? ⟨w.heap.size, 0, none⟩ = some (.int .i64 0) := heap_cell ha9 0; have da1 : w9.cell? ⟨w.heap.size, 1, none⟩ = some (.string nm) := heap_cell ha9 1; have da2 : w9.cell? ⟨w.heap.size, 2, none⟩ = some (.string ⟨#[]⟩) := heap_cell ha9 2; have ga0 := heap_frozen ha9 0; have ga1 := heap_frozen ha9 1; have ga2 := heap_frozen ha9 2; have db0 := h9.cell0; have db1 := h9.cell1; have gb1 := h9.frozen 1; have HA9 := Lib.hid ha9; have H9 := Lib.hid h9; clear hor hN1 hN2 ha9 h9)
    all_goals
      go_wp2_with fail
      obtain ⟨wa, hwa⟩ : ∃ wa, wa = w9.setCell ⟨w.heap.size, 2, none⟩ (.string V) := ⟨_, rfl⟩
      obtain ⟨wb, hwb⟩ : ∃ wb, wb = wa.setCell ⟨b, 1, none⟩ (.int .i64 (N : Nat)) := ⟨_, rfl⟩
      obtain ⟨wc, hwc⟩ : ∃ wc, wc = ((wb.setCell ⟨w.heap.size, 0, none⟩ (.int .i64 0)).setCell ⟨w.heap.size, 1, none⟩ (.string nm)).setCell ⟨w.heap.size, 2, none⟩ (.string V) := ⟨_, rfl⟩
      rw [← hwa, ← hwb, ← hwc]
      have haa : wa.heap[w.heap.size]? = some (.cells #[.int .i64 0, .string nm, .string V] 31 (0, 0)) := by rw [hwa]; exact heap_set HA9.out 2 _
      have hba : But b w wa := by rw [hwa]; exact but_new (HB8.out.trans (But.of_below hb9)) (Nat.le_refl _) _ _
      have hta : At wa b #[.string s, .int .i64 ((k + 1 + n + n2 + 1 : Nat) : Int)] T s (k + 1 + n + n2 + 1) := by rw [hwa]; exact H9.out.same (Below.heap_setCell _ _ _ _ (fun e => hab e.symm))
      have hab' : wb.heap[w.heap.size]? = some (.cells #[.int .i64 0, .string nm, .string V] 31 (0, 0)) := by rw [hwb]; exact heap_but haa (But.set _ _ _ _) hab
      have hbb : But b w wb := by rw [hwb]; exact hba.trans (But.set _ _ _ _)
      have htb : At wb b #[.string s, .int .i64 N] T s N := by rw [hwb]; exact hta.set N
      have hac : wc.heap[w.heap.size]? = some (.cells #[.int .i64 0, .string nm, .string V] 31 (0, 0)) := by rw [hwc]; exact heap_set (heap_set (heap_set hab' 0 _) 1 _) 2 _
      have hbc : But b w wc := by rw [hwc]; exact but_new (but_new (but_new hbb (Nat.le_refl _) _ _) (Nat.le_refl _) _ _) (Nat.le_refl _) _ _
      have htc : At wc b #[.string s, .int .i64 N] T s N := by
        rw [hwc]
        exact ((htb.same (Below.heap_setCell _ _ _ _ (fun e => hab e.symm))).same (Below.heap_setCell _ _ _ _ (fun e => hab e.symm))).same (Below.heap_setCell _ _ _ _ (fun e => hab e.symm))
      have ea0 : wc.cell? ⟨w.heap.size, 0, none⟩ = some (.int .i64 0) := heap_cell hac 0
      have ea1 : wc.cell? ⟨w.heap.size, 1, none⟩ = some (.string nm) := heap_cell hac 1
      have ea2 : wc.cell? ⟨w.heap.size, 2, none⟩ = some (.string V) := heap_cell hac 2
      clear hwa hwb hwc haa hba hta hab' hbb htb hac
      refine bodyPost_ret (v := .tuple #[.agg #[.int .i64 0, .string nm, .string V], .bool cl]) (by simp [results, Tryz.results64, go_sem, ea0, ea1, ea2]) rfl ⟨nm, V, cl, N, rfl, by have := HN1.out; omega, HN2.out, ⟨x, _, HD.out, HNAME.out, .inr ⟨?_, ?_⟩⟩, htc, hbc⟩
      · rw [HREST.out]
        exact (pre_head _ _).1 HP.out
      · rw [HREST.out, List.drop_drop]
        rcases HOR.out with ⟨h1, h2⟩ | ⟨h1, _, h2, h3⟩
        · exact .inl ⟨h1, h2⟩
        · exact .inr ⟨h1, h3, h2⟩
  · have ha8 := heap_but HA7.out hB8 hab
    have hb8 := HB7.out.trans hB8
    have HP := Lib.hid hp
    have ca0 : w8.cell? ⟨w.heap.size, 0, none⟩ = some (.int .i64 0) := heap_cell ha8 0
    have ca1 : w8.cell? ⟨w.heap.size, 1, none⟩ = some (.string nm) := heap_cell ha8 1
    have ca2 : w8.cell? ⟨w.heap.size, 2, none⟩ = some (.string ⟨#[]⟩) := heap_cell ha8 2
    have fa0 := heap_frozen ha8 0
    have fa1 := heap_frozen ha8 1
    have fa2 := heap_frozen ha8 2
    have HB8 := Lib.hid hb8
    have HA8 := Lib.hid ha8
    have H8 := Lib.hid h8
    clear ha8 h8 hb8 hp hB8
    go_wp2_with fail
    obtain ⟨w9, hw9⟩ : ∃ w9, w9 = ((w8.setCell ⟨w.heap.size, 0, none⟩ (.int .i64 0)).setCell ⟨w.heap.size, 1, none⟩ (.string nm)).setCell ⟨w.heap.size, 2, none⟩ (.string ⟨#[]⟩) := ⟨_, rfl⟩
    rw [← hw9]
    have ha9 : w9.heap[w.heap.size]? = some (.cells #[.int .i64 0, .string nm, .string ⟨#[]⟩] 31 (0, 0)) := by rw [hw9]; exact heap_set (heap_set (heap_set HA8.out 0 _) 1 _) 2 _
    have hb9 : But b w w9 := by rw [hw9]; exact but_new (but_new (but_new HB8.out (Nat.le_refl _) _ _) (Nat.le_refl _) _ _) (Nat.le_refl _) _ _
    have h9 : At w9 b #[.string s, .int .i64 ((k + 1 + n + n2 : Nat) : Int)] T s (k + 1 + n + n2) := by
      rw [hw9]
      exact ((H8.out.same (Below.heap_setCell _ _ _ _ (fun e => hab e.symm))).same (Below.heap_setCell _ _ _ _ (fun e => hab e.symm))).same (Below.heap_setCell _ _ _ _ (fun e => hab e.symm))
    have da0 : w9.cell? ⟨w.heap.size, 0, none⟩ = some (.int .i64 0) := heap_cell ha9 0
    have da1 : w9.cell? ⟨w.heap.size, 1, none⟩ = some (.string nm) := heap_cell ha9 1
    have da2 : w9.cell? ⟨w.heap.size, 2, none⟩ = some (.string ⟨#[]⟩) := heap_cell ha9 2
    clear hw9
    refine bodyPost_ret (v := .tuple #[.agg #[.int .i64 0, .string nm, .string ⟨#[]⟩], .bool true]) (by simp [results, Tryz.results64, go_sem, da0, da1, da2]) rfl ⟨nm, _, true, k + 1 + n + n2, rfl, by omega, HK2.out, ⟨x, _, HD.out, HNAME.out, .inl ⟨?_, rfl, rfl, HREST.out.symm⟩⟩, h9, hb9⟩
    rw [HREST.out, ne_eq, ← pre_head]
    rw [show [61] = (⟨#[61]⟩ : ByteArray).data.toList from rfl, HP.out]
    simp
end Go.Proofs.YtnfccckodgknjaaGreatDoor

namespace Go.Proofs.YtnfccckodgknjaaGreatDoor
open Go.RowKit Go.Shelf Go.Lib
set_option maxHeartbeats 4000000
set_option maxRecDepth 100000

theorem stopsC (b : Nat) (T : TypeId) (s last : ByteArray) (j : Nat) (hj : j ≤ s.size) (hs : s.size ≤ 10000000) (w : World) (h : At w b #[.string s, .int .i64 j] T s j) :
    Calls Tryz.prog 115 #[.pointer (some ⟨b, 0, none⟩), .string last] w fun e w' => e = .returned (.bool (decide (j = s.size) || closesL last.data.toList (s.data.toList.drop j))) ∧ At w' b #[.string s, .int .i64 j] T s j ∧ But b w w' := by
  have y0 := h.cell0
  have y1 := h.cell1
  have y2 := h.lt
  have HAT := Lib.hid h
  by_cases hjs : j = s.size
  · rw [decide_eq_true hjs, Bool.true_or]
    have HEQ : Hid (∀ n, Calls Tryz.prog 62 #[.pointer (some ⟨b, 0, none⟩)] (w.drewN n) fun e w2 => e = .returned (.bool true) ∧ ∃ m, w2 = (w.drewN n).drewN m) := Lib.hid (by
      intro n
      have := curEndedQ b _ T s j (w.drewN n) (HAT.out.same rfl)
      rwa [decide_eq_true hjs] at this)
    clear hjs hj hs h
    go_enter Tryz.func115, Tryz.ntmps115
    go_wp2_with fail
    go_quiet ((go_at_call 62; exact Calls.quiet_of (HEQ.out _)))
    go_wp2_with fail
    go_ret
    exact ⟨rfl, HAT.out.same rfl, But.of_below (by (repeat' (first | (with_reducible exact Below.refl _ _) | (with_reducible assumption) | (with_reducible refine below_alloc ?_ _) | (with_reducible refine Below.drew ?_) | (with_reducible refine _root_.Go.below_drewN ?_ _) | (with_reducible refine Below.setCell ?_ ?_ _) | go_size | (refine below_next ?_ (by assumption)))))⟩
  · rw [decide_eq_false hjs, Bool.false_or]
    have HE := Lib.hid (stp_ended hj h false (decide_eq_false hjs).symm)
    obtain ⟨q, hq⟩ : ∃ q, q = closesL last.data.toList (s.data.toList.drop j) := ⟨_, rfl⟩
    have HP := Lib.hid (stp_closes hj hs h q hq)
    rw [← hq]
    unfold Stp at HE HP
    clear hq hjs hj hs h
    go_enter Tryz.func115, Tryz.ntmps115
    go_wp2_with fail
    go_region_held3 (fun w' => w'.cell? ⟨b, 0, none⟩ = some (.string s) ∧ w'.cell? ⟨b, 1, none⟩ = some (.int .i64 j) ∧ b < w'.heap.size ∧ Below w.heap.size w w')
      (first | exact ⟨y0, y1, y2, Below.drew (Below.refl _ _)⟩ | exact ⟨by assumption, by assumption, by assumption, by assumption⟩ | go_keep)
      (first | (go_at_call 62; refine (HE.out _ (by first | assumption | exact ⟨by assumption, by assumption, by assumption, by first | assumption | exact Below.drew (by assumption)⟩)).mono ?_; rintro e w3 ⟨rfl, c0, c1, c2, c3⟩)
             | (go_at_call 53; refine (HP.out _ (by first | assumption | exact ⟨by assumption, by assumption, by assumption, by first | assumption | exact Below.drew (by assumption)⟩)).mono ?_; rintro e w3 ⟨rfl, c0, c1, c2, c3⟩))
    all_goals
      go_wp2_with fail
      go_ret
      exact ⟨rfl, HAT.out.below c3, But.of_below c3⟩

theorem fold_script (V : ByteArray) : foldB V ⟨#[115, 99, 114, 105, 112, 116]⟩ = (lowL V.data.toList == sScript) := by
  unfold foldB
  have e1 : V.data.toList.map lowU = lowL V.data.toList := List.map_congr_left fun b _ => lowU_low' b
  have e2 : (⟨#[115, 99, 114, 105, 112, 116]⟩ : ByteArray).data.toList.map lowU = sScript := by decide
  rw [e1, e2]

theorem tookScriptC (b : Nat) (T : TypeId) (s : ByteArray) (j : Nat) (hj : j ≤ s.size) (hs : s.size ≤ 10000000) (w : World) (h : At w b #[.string s, .int .i64 j] T s j) :
    Calls Tryz.prog 118 #[.pointer (some ⟨b, 0, none⟩)] w fun e w' => ∃ (r : Bool) (n j' : Nat), e = .returned (.bool r) ∧ n = wordN (s.data.toList.drop j) ∧ j' ≤ s.size ∧ j ≤ j' ∧
      ((seesB (fun r => enB r) (s.data.toList.drop (j + n)) = false ∧ r = false ∧ j' = j + n) ∨ (seesB (fun r => enB r) (s.data.toList.drop (j + n)) = true ∧ r = (lowL ((s.data.toList.drop j).take n) == sScript) ∧ j' = j + n + 1)) ∧
      At w' b #[.string s, .int .i64 j'] T s j' ∧ But b w w' := by
  have HS := Lib.hid hs
  have HU := Lib.hid (untilE 111 (fun args w => enters_of Tryz.func111 (by kernel_rfl) rfl args w) (fun r => !letB r) true hi_noLetter (fun b => !leU b) rfl b _ T s j hj (by omega) w (grows_noLetter _) h)
  clear hs
  go_enter Tryz.func118, Tryz.ntmps118
  go_wp2_with fail
  refine HU.out.mono ?_
  rintro e w2 ⟨n, V, hn, hjn, rfl, hV, hVz, h2, hB2⟩
  have HSe := Lib.hid (seesE2 113 (fun args w => enters_of Tryz.func113 (by kernel_rfl) rfl args w) (fun r => enB r) b T s (j + n) hjn grows_name w2 h2)
  obtain ⟨q, hq⟩ : ∃ q, q = seesB (fun r => enB r) (s.data.toList.drop (j + n)) := ⟨_, rfl⟩
  rw [← hq] at HSe
  have HQ := Lib.hid hq
  have HN := Lib.hid hn
  have HJN := Lib.hid hjn
  have HV := Lib.hid hV
  have HVZ := Lib.hid hVz
  clear hq hn hjn hV hVz h2 hj
  cases q
  · go_wp2_with fail
    refine HSe.out.mono ?_
    rintro e w3 ⟨rfl, hb3, h3⟩
    go_wp2_with fail
    go_ret
    exact ⟨false, n, j + n, rfl, HN.out, HJN.out, by omega, .inl ⟨HQ.out.symm, rfl, rfl⟩, h3, hB2.trans (But.of_below hb3)⟩
  · have hj1 : j + n + 1 ≤ s.size := by
      have hq := HQ.out
      have := HJN.out
      rcases Nat.lt_or_ge (j + n) s.size with hl | hl
      · exact hl
      · rw [drop_end s _ hl] at hq; cases hq
    have HJ1 := Lib.hid hj1
    clear hj1
    go_wp2_with fail
    refine HSe.out.mono ?_
    rintro e w3 ⟨rfl, hb3, h3⟩
    have HT := Lib.hid (takeE b _ T s (j + n) 1 HJ1.out (by have := HS.out; omega) w3 h3)
    clear h3
    go_wp2_with fail
    refine HT.out.mono ?_
    rintro e w4 ⟨V4, rfl, _, _, h4, hB4⟩
    have HF := Lib.hid (equalFold V ⟨#[115, 99, 114, 105, 112, 116]⟩ (by unfold maxLen; have := HVZ.out; have := HJN.out; have := HS.out; omega) w4)
    rw [fold_script, HV.out] at HF
    obtain ⟨r, hr⟩ : ∃ r, r = (lowL ((s.data.toList.drop j).take n) == sScript) := ⟨_, rfl⟩
    rw [← hr] at HF
    have HR := Lib.hid hr
    have H4 := Lib.hid h4
    clear hr h4
    go_wp2_with fail
    refine HF.out.mono ?_
    rintro e w5 ⟨rfl, hb5⟩
    go_wp2_with fail
    go_ret
    exact ⟨r, n, j + n + 1, rfl, HN.out, HJ1.out, by omega, .inr ⟨HQ.out.symm, HR.out, rfl⟩, H4.out.below hb5, ((hB2.trans (But.of_below hb3)).trans hB4).trans (But.of_below hb5)⟩

theorem grows_letter (w : World) : PredGrows Tryz.prog 76 #[] (fun r => letB r) w := fun W x _ _ => isLetter x W

theorem tookOpeningC (b : Nat) (s : ByteArray) (j : Nat) (hj : j ≤ s.size) (hs : s.size ≤ 10000000) (w : World) (h : At w b #[.string s, .int .i64 j] 79 s j) :
    Calls Tryz.prog 117 #[.pointer (some ⟨b, 0, none⟩)] w fun e w' =>
      (e = .returned (.bool true) ∧ [60].isPrefixOf (s.data.toList.drop j) = true ∧ seesB (fun r => letB r) (s.data.toList.drop (j + 1)) = true ∧ j + 1 ≤ s.size ∧ At w' b #[.string s, .int .i64 ((j + 1 : Nat) : Int)] 79 s (j + 1) ∧ But b w w') ∨
      (e = .returned (.bool false) ∧ ([60].isPrefixOf (s.data.toList.drop j) = false ∨ seesB (fun r => letB r) (s.data.toList.drop (j + 1)) = false) ∧ At w' b #[.string s, .int .i64 j] 79 s j ∧ But b w w') := by
  have y0 := h.cell0
  have y1 := h.cell1
  have y2 := h.lt
  have HAT := Lib.hid h
  have HS := Lib.hid hs
  have HJ := Lib.hid hj
  clear hj hs h
  go_enter Tryz.func117, Tryz.ntmps117
  go_wp2_with fail
  have hat : At (w.alloc (.cells #[.string s, .int .i64 j] 79)) w.heap.size #[.string s, .int .i64 j] 79 s j := at_new rfl
  have hb1 : Below w.heap.size w (w.alloc (.cells #[.string s, .int .i64 j] 79)) := below_alloc (Below.refl _ _) _
  obtain ⟨w1, hw1⟩ : ∃ w1, w1 = w.alloc (.cells #[.string s, .int .i64 j] 79) := ⟨_, rfl⟩
  rw [← hw1] at hat hb1 ⊢
  have h1 := HAT.out.below hb1
  have HT := Lib.hid (tookE w.heap.size _ _ s ⟨#[60]⟩ j 1 rfl HJ.out (by have := HS.out; omega) w1 hat)
  have H1 := Lib.hid h1
  have hne : b ≠ w.heap.size := by omega
  clear hw1 hat h1 y0 y1
  go_wp2_with fail
  refine HT.out.mono ?_
  rintro e w2 (⟨rfl, hp, hj1, h2, hB2⟩ | ⟨rfl, hp, h2, hB2⟩)
  · have hq2 := H1.out.but hB2 hne
    have HSe := Lib.hid (seesE2 76 (fun args w => enters_of Tryz.func76 (by kernel_rfl) rfl args w) (fun r => letB r) w.heap.size 79 s (j + 1) hj1 grows_letter w2 h2)
    obtain ⟨q, hq⟩ : ∃ q, q = seesB (fun r => letB r) (s.data.toList.drop (j + 1)) := ⟨_, rfl⟩
    rw [← hq] at HSe
    have HQ := Lib.hid hq
    have HP := Lib.hid hp
    have HJ1 := Lib.hid hj1
    have HQ2 := Lib.hid hq2
    have hbel : Below w.heap.size w w2 := below_but hb1 hB2 (Nat.le_refl _)
    clear hq hp hj1 hq2 h2
    cases q
    · go_wp2_with fail
      refine HSe.out.mono ?_
      rintro e w3 ⟨rfl, hb3, h3⟩
      have hq3 := HQ2.out.below hb3
      go_wp2_with fail
      go_ret
      exact .inr ⟨rfl, .inr HQ.out.symm, hq3, (But.of_below hbel).trans (But.of_below hb3)⟩
    · go_wp2_with fail
      refine HSe.out.mono ?_
      rintro e w3 ⟨rfl, hb3, h3⟩
      have hq3 := HQ2.out.below hb3
      have z0 := h3.cell0
      have z1 := h3.cell1
      have x0 := hq3.cell0
      have x1 := hq3.cell1
      have f0 := hq3.frozen 0
      have f1 := hq3.frozen 1
      have HQ3 := Lib.hid hq3
      clear hq3 h3
      go_wp2_with fail
      go_ret
      have ha : At (w3.setCell ⟨b, 0, none⟩ (.string s)) b #[.string s, .int .i64 j] 79 s j := ⟨heap_set HQ3.out.blk 0 _, rfl, rfl⟩
      exact .inl ⟨rfl, HP.out, HQ.out.symm, HJ1.out, ha.set (j + 1), (((But.of_below hbel).trans (But.of_below hb3)).trans (But.set _ _ _ _)).trans (But.set _ _ _ _)⟩
  · have hq2 := H1.out.but hB2 hne
    have HP := Lib.hid hp
    have hbel : Below w.heap.size w w2 := below_but hb1 hB2 (Nat.le_refl _)
    clear hp h2
    go_wp2_with fail
    go_ret
    exact .inr ⟨rfl, .inl HP.out, hq2, But.of_below hbel⟩
end Go.Proofs.YtnfccckodgknjaaGreatDoor

namespace Go.Proofs.YtnfccckodgknjaaGreatDoor
open Go.RowKit Go.Shelf Go.Lib
set_option maxHeartbeats 2000000
set_option maxRecDepth 100000

/-- The cursor in block cb stands at j; the builder in block ob holds acc; g: the cell of the keeper. -/
structure Kw (s : ByteArray) (cb ob g j : Nat) (acc : List UInt8) (w wr : World) : Prop where
  cur : At wr cb #[.string s, .int .i64 j] 79 s j
  rsv : Rsv w.heap.size ob g acc w wr
  cB : w.heap.size ≤ cb
  co : cb ≠ ob
  cg : g ≠ cb
theorem kw_but {s : ByteArray} {cb ob g j j' : Nat} {acc : List UInt8} {w wr w' : World} (h : Kw s cb ob g j acc w wr) (hc : At w' cb #[.string s, .int .i64 j'] 79 s j') (hb : But cb wr w') : Kw s cb ob g j' acc w w' :=
  ⟨hc, ⟨builder_but h.rsv.bld h.cur.blk (by decide) h.co hb, heap_but' h.rsv.kee hb h.cg, below_but h.rsv.bel hb h.cB, h.rsv.gB, h.rsv.gb⟩, h.cB, h.co, h.cg⟩
  where heap_but' {w w' : World} {b c : Nat} {o : Obj} (h : w.heap[b]? = some o) (hb : But c w w') (hne : b ≠ c) : w'.heap[b]? = some o := (hb.block b (Array.getElem?_eq_some_iff.1 h).1 (fun e => hne (by cases e; rfl))).trans h
theorem kw_below {s : ByteArray} {cb ob g j : Nat} {acc : List UInt8} {w wr w' : World} (h : Kw s cb ob g j acc w wr) (hb : Below wr.heap.size wr w') : Kw s cb ob g j acc w w' :=
  ⟨h.cur.below hb, rsv_below h.rsv (Nat.le_refl _) hb, h.cB, h.co, h.cg⟩

theorem kw_took {s : ByteArray} {cb ob g j : Nat} {acc : List UInt8} {w wr : World} (h : Kw s cb ob g j acc w wr) (p : ByteArray) (n : Nat) (hn : p.size = n) (hj : j ≤ s.size) (hs : s.size ≤ 1000000000) :
    Calls Tryz.prog 63 #[.pointer (some ⟨cb, 0, none⟩), .string p] wr fun e w' =>
      (e = .returned (.bool true) ∧ p.data.toList.isPrefixOf (s.data.toList.drop j) = true ∧ j + n ≤ s.size ∧ Kw s cb ob g (j + n) acc w w') ∨
      (e = .returned (.bool false) ∧ p.data.toList.isPrefixOf (s.data.toList.drop j) = false ∧ Kw s cb ob g j acc w w') := by
  refine (tookE cb _ _ s p j n hn hj hs wr h.cur).mono ?_
  rintro e w' (⟨rfl, h1, h2, h3, h4⟩ | ⟨rfl, h1, h3, h4⟩)
  · exact .inl ⟨rfl, h1, h2, kw_but h h3 h4⟩
  · exact .inr ⟨rfl, h1, kw_but h h3 h4⟩
theorem kw_ended {s : ByteArray} {cb ob g j : Nat} {acc : List UInt8} {w wr : World} (h : Kw s cb ob g j acc w wr) (hj : j ≤ s.size) (r : Bool) (hr : r = decide (j = s.size)) :
    Calls Tryz.prog 62 #[.pointer (some ⟨cb, 0, none⟩)] wr fun e w' => e = .returned (.bool r) ∧ Kw s cb ob g j acc w w' := by
  refine (curEnded cb _ _ s j hj wr h.cur).mono ?_
  rintro e w' ⟨rfl, hb⟩
  exact ⟨by rw [hr], kw_below h hb⟩
theorem kw_until {s : ByteArray} {cb ob g j : Nat} {acc : List UInt8} {w wr : World} (h : Kw s cb ob g j acc w wr) (gf : Nat) (eg : ∀ args w, (callFunc gf args).run Tryz.prog w = .ok (.enter gf args) w) (p : Nat → Bool) (H : Bool) (hH : ∀ r, 128 ≤ r → r ≤ 1114111 → p r = H) (q : UInt8 → Bool) (hq : qOf p = q)
    (hp : ∀ w, PredGrows Tryz.prog gf #[] p w) (hj : j ≤ s.size) (hs : s.size ≤ 1000000000) :
    Calls Tryz.prog 106 #[.pointer (some ⟨cb, 0, none⟩), .func (.func gf) #[] #[]] wr fun e w' => ∃ (N : Nat) (V : ByteArray), N = runN q (s.data.toList.drop j) ∧ j + N ≤ s.size ∧
      e = .returned (.string V) ∧ V.data.toList = (s.data.toList.drop j).take N ∧ V.size = N ∧ Kw s cb ob g (j + N) acc w w' := by
  refine (untilE gf eg p H hH q hq cb _ _ s j hj hs wr (hp wr) h.cur).mono ?_
  rintro e w' ⟨N, V, h1, h2, rfl, h3, h4, h5, h6⟩
  exact ⟨N, V, h1, h2, rfl, h3, h4, kw_but h h5 h6⟩
theorem kw_keep {s : ByteArray} {cb ob g j : Nat} {acc : List UInt8} {m : Int} {w wr : World} (h : Kw s cb ob g j acc w wr) (hm : w.cell? ⟨1, 0, none⟩ = some (.int .i64 m)) (p : ByteArray) (hp : p.size ≤ 10000000) (hl : acc.length ≤ 1000000000) :
    Calls Tryz.prog 176 #[.string p, .pointer (some ⟨g, 0, none⟩)] wr fun e w' => e = .returned (.tuple #[]) ∧ Kw s cb ob g j (acc ++ nulL p.data.toList) w w' := by
  refine (keep1 w.heap.size ob g m p acc wr (carry hm h.rsv.bel) (by simp [World.cell?, h.rsv.kee]) h.rsv.bld hp hl h.rsv.bel.size).mono ?_
  rintro e w' ⟨rfl, h1, h2, h3⟩
  have hk := others_cells h3 h2
  exact ⟨rfl, h.cur.same ((hk.same cb _ _ _ h.cur.blk h.co (by decide)).trans h.cur.blk.symm), ⟨h1, hk.same g _ _ _ h.rsv.kee h.rsv.gb (by decide), h.rsv.bel.trans h2, h.rsv.gB, h.rsv.gb⟩, h.cB, h.co, h.cg⟩
theorem kw_string {s : ByteArray} {cb ob g j : Nat} {acc : List UInt8} {w wr : World} (h : Kw s cb ob g j acc w wr) :
    Calls Tryz.prog 108 #[.pointer (some ⟨ob, 0, none⟩)] wr fun e w' => e = .returned (.string (bl acc)) ∧ Kw s cb ob g j acc w w' := by
  refine (Tryz.Builder_String_any_k w.heap.size ob acc wr h.rsv.bld h.rsv.bel.size).mono ?_
  rintro e w' ⟨rfl, h1, h2, h3⟩
  have hk := others_cells h3 h2
  exact ⟨rfl, h.cur.same ((hk.same cb _ _ _ h.cur.blk h.co (by decide)).trans h.cur.blk.symm), ⟨h1, hk.same g _ _ _ h.rsv.kee h.rsv.gb (by decide), h.rsv.bel.trans h2, h.rsv.gB, h.rsv.gb⟩, h.cB, h.co, h.cg⟩
end Go.Proofs.YtnfccckodgknjaaGreatDoor

namespace Go.Proofs.YtnfccckodgknjaaGreatDoor
open Go.RowKit Go.Shelf Go.Lib
set_option maxHeartbeats 4000000
set_option maxRecDepth 100000

structure Dt where
  st : Nat
  q : ByteArray
  name : ByteArray
  hn : Bool
  pub : ByteArray
  hp : Bool
  sys : ByteArray
  hs : Bool
  qk : Bool
def dcells (s : ByteArray) (j : Nat) (d : Dt) : Array Value := #[.string s, .int .i64 j, .int .i64 (d.st : Nat), .string d.q, .int .i64 1, .string d.name, .bool d.hn, .string d.pub, .bool d.hp, .string d.sys, .bool d.hs, .bool d.qk, .slice none 0 0, .bool false, .string ⟨#[]⟩, .int .i32 0]
/-- Block b is the reader d, at j. -/
def DAt (w : World) (b : Nat) (s : ByteArray) (j : Nat) (d : Dt) : Prop := w.heap[b]? = some (.cells (dcells s j d) 86 (0, 0))
theorem DAt.at {w : World} {b : Nat} {s : ByteArray} {j : Nat} {d : Dt} (h : DAt w b s j d) : At w b (dcells s j d) 86 s j := ⟨h, rfl, rfl⟩
theorem DAt.of {w : World} {b : Nat} {s : ByteArray} {j k : Nat} {d : Dt} (h : At w b (mv (dcells s j d) k) 86 s k) : DAt w b s k d := h.blk
theorem DAt.of' {w : World} {b : Nat} {s : ByteArray} {j : Nat} {d : Dt} (h : At w b (dcells s j d) 86 s j) : DAt w b s j d := h.blk
theorem DAt.lt {w : World} {b : Nat} {s : ByteArray} {j : Nat} {d : Dt} (h : DAt w b s j d) : b < w.heap.size := (Array.getElem?_eq_some_iff.1 h).1
theorem DAt.cell {w : World} {b : Nat} {s : ByteArray} {j : Nat} {d : Dt} (h : DAt w b s j d) (o : Nat) : w.cell? ⟨b, o, none⟩ = (dcells s j d)[o]? := heap_cell h o
theorem DAt.frozen {w : World} {b : Nat} {s : ByteArray} {j : Nat} {d : Dt} (h : DAt w b s j d) (o : Nat) : w.frozen? ⟨b, o, none⟩ = false := heap_frozen h o
theorem DAt.below {w w' : World} {b : Nat} {s : ByteArray} {j : Nat} {d : Dt} (h : DAt w b s j d) (hb : Below w.heap.size w w') : DAt w' b s j d := heap_below h hb
theorem DAt.setSt {w : World} {b : Nat} {s : ByteArray} {j : Nat} {d : Dt} (h : DAt w b s j d) (n : Nat) : DAt (w.setCell ⟨b, 2, none⟩ (.int .i64 n)) b s j { d with st := n } := heap_set h 2 _
theorem DAt.setQ {w : World} {b : Nat} {s : ByteArray} {j : Nat} {d : Dt} (h : DAt w b s j d) (v : ByteArray) : DAt (w.setCell ⟨b, 3, none⟩ (.string v)) b s j { d with q := v } := heap_set h 3 _
theorem DAt.setName {w : World} {b : Nat} {s : ByteArray} {j : Nat} {d : Dt} (h : DAt w b s j d) (v : ByteArray) : DAt (w.setCell ⟨b, 5, none⟩ (.string v)) b s j { d with name := v } := heap_set h 5 _
theorem DAt.setHn {w : World} {b : Nat} {s : ByteArray} {j : Nat} {d : Dt} (h : DAt w b s j d) (v : Bool) : DAt (w.setCell ⟨b, 6, none⟩ (.bool v)) b s j { d with hn := v } := heap_set h 6 _
theorem DAt.setPub {w : World} {b : Nat} {s : ByteArray} {j : Nat} {d : Dt} (h : DAt w b s j d) (v : ByteArray) : DAt (w.setCell ⟨b, 7, none⟩ (.string v)) b s j { d with pub := v } := heap_set h 7 _
theorem DAt.setHp {w : World} {b : Nat} {s : ByteArray} {j : Nat} {d : Dt} (h : DAt w b s j d) (v : Bool) : DAt (w.setCell ⟨b, 8, none⟩ (.bool v)) b s j { d with hp := v } := heap_set h 8 _
theorem DAt.setSys {w : World} {b : Nat} {s : ByteArray} {j : Nat} {d : Dt} (h : DAt w b s j d) (v : ByteArray) : DAt (w.setCell ⟨b, 9, none⟩ (.string v)) b s j { d with sys := v } := heap_set h 9 _
theorem DAt.setHs {w : World} {b : Nat} {s : ByteArray} {j : Nat} {d : Dt} (h : DAt w b s j d) (v : Bool) : DAt (w.setCell ⟨b, 10, none⟩ (.bool v)) b s j { d with hs := v } := heap_set h 10 _
theorem DAt.setQk {w : World} {b : Nat} {s : ByteArray} {j : Nat} {d : Dt} (h : DAt w b s j d) (v : Bool) : DAt (w.setCell ⟨b, 11, none⟩ (.bool v)) b s j { d with qk := v } := heap_set h 11 _

theorem DAt.qk_eq {w : World} {b : Nat} {s : ByteArray} {j : Nat} {d : Dt} {x y : Bool} (h : DAt w b s j { d with qk := x }) (e : x = y) : DAt w b s j { d with qk := y } := e ▸ h

theorem dSpaces (b : Nat) (s : ByteArray) (k : Nat) (d : Dt) (hk : k ≤ s.size) (hs : s.size ≤ 1000000000) (w : World) (h : DAt w b s k d) :
    Calls Tryz.prog 61 #[.pointer (some ⟨b, 0, none⟩)] w fun e w' => ∃ (N : Nat) (f : Bool), e = .returned (.bool f) ∧ f = decide (0 < N) ∧ s.data.toList.drop (k + N) = sk (s.data.toList.drop k) ∧ k + N ≤ s.size ∧ DAt w' b s (k + N) d ∧ But b w w' := by
  refine (curSpaces b _ _ s k hk hs w h.at).mono ?_
  rintro e w' ⟨N, h1, h2, rfl, h3, h4⟩
  refine ⟨N, _, rfl, rfl, ?_, h2, DAt.of h3, h4⟩
  unfold sk
  rw [List.drop_drop]
  have e : (qOf fun r => !spB r) = fun b => !spU b := rfl
  rw [e] at h1
  rw [h1]
theorem dUntil (g : Nat) (lb : Array Value) (eg : ∀ args w, (callFunc g args).run Tryz.prog w = .ok (.enter g args) w) (p : Nat → Bool) (H : Bool) (hH : ∀ r, 128 ≤ r → r ≤ 1114111 → p r = H) (q : UInt8 → Bool) (hq : qOf p = q)
    (b : Nat) (s : ByteArray) (k : Nat) (d : Dt) (hk : k ≤ s.size) (hs : s.size ≤ 1000000000) (w : World) (hp : PredGrows Tryz.prog g lb p w) (h : DAt w b s k d) :
    Calls Tryz.prog 106 #[.pointer (some ⟨b, 0, none⟩), .func (.func g) #[] lb] w fun e w' => ∃ (N : Nat) (V : ByteArray), N = runN q (s.data.toList.drop k) ∧ k + N ≤ s.size ∧
      e = .returned (.string V) ∧ V.data.toList = (s.data.toList.drop k).take N ∧ V.size = N ∧ DAt w' b s (k + N) d ∧ But b w w' := by
  subst hq
  refine (curUntil g lb eg p H hH b _ _ s k hk hs w hp h.at).mono ?_
  rintro e w' ⟨N, h1, h2, rfl, h3, h4⟩
  exact ⟨N, _, h1, h2, rfl, ext_take s k N h2, by rw [ByteArray.size_extract]; omega, DAt.of h3, h4⟩
theorem dTook (b : Nat) (s p : ByteArray) (k n : Nat) (d : Dt) (hn : p.size = n) (hk : k ≤ s.size) (hs : s.size ≤ 1000000000) (w : World) (h : DAt w b s k d) :
    Calls Tryz.prog 63 #[.pointer (some ⟨b, 0, none⟩), .string p] w fun e w' =>
      (e = .returned (.bool true) ∧ p.data.toList.isPrefixOf (s.data.toList.drop k) = true ∧ k + n ≤ s.size ∧ DAt w' b s (k + n) d ∧ But b w w') ∨
      (e = .returned (.bool false) ∧ p.data.toList.isPrefixOf (s.data.toList.drop k) = false ∧ DAt w' b s k d ∧ But b w w') := by
  subst hn
  refine (curTook b _ _ s p k hk hs w h.at).mono ?_
  rintro e w' (⟨rfl, h1, h2, h3, h4⟩ | ⟨rfl, h1, h3, h4⟩)
  · exact .inl ⟨rfl, List.isPrefixOf_iff_prefix.2 h1, h2, DAt.of h3, h4⟩
  · exact .inr ⟨rfl, by rw [Bool.eq_false_iff]; exact fun e => h1 (List.isPrefixOf_iff_prefix.1 e), DAt.of' h3, h4⟩
theorem dTake (b : Nat) (s : ByteArray) (k n : Nat) (d : Dt) (hk : k + n ≤ s.size) (hs : s.size ≤ 1000000000) (w : World) (h : DAt w b s k d) :
    Calls Tryz.prog 116 #[.pointer (some ⟨b, 0, none⟩), .int .i64 n] w fun e w' => ∃ V : ByteArray, e = .returned (.string V) ∧ V.data.toList = (s.data.toList.drop k).take n ∧ V.size = n ∧ DAt w' b s (k + n) d ∧ But b w w' := by
  refine (curTake b _ _ s k n hk (by unfold maxLen; omega) w h.at).mono ?_
  rintro e w' ⟨rfl, h1, h2⟩
  exact ⟨_, rfl, ext_take s k n hk, by rw [ByteArray.size_extract]; omega, DAt.of h1, h2⟩
theorem dSees (g : Nat) (eg : ∀ args w, (callFunc g args).run Tryz.prog w = .ok (.enter g args) w) (p : Nat → Bool) (b : Nat) (s : ByteArray) (k : Nat) (d : Dt) (hk : k ≤ s.size) (hp : ∀ w, PredGrows Tryz.prog g #[] p w) (w : World) (h : DAt w b s k d) :
    Calls Tryz.prog 75 #[.pointer (some ⟨b, 0, none⟩), .func (.func g) #[] #[]] w fun e w' => e = .returned (.bool (seesB p (s.data.toList.drop k))) ∧ But b w w' ∧ DAt w' b s k d := by
  refine (seesE g eg p b _ _ s k hk w (hp w) h.at).mono ?_
  rintro e w' ⟨rfl, hb⟩
  exact ⟨rfl, But.of_below hb, h.below hb⟩
theorem dEnded (b : Nat) (s : ByteArray) (k : Nat) (d : Dt) (hk : k ≤ s.size) (r : Bool) (hr : r = decide (k = s.size)) (w : World) (h : DAt w b s k d) :
    Calls Tryz.prog 62 #[.pointer (some ⟨b, 0, none⟩)] w fun e w' => e = .returned (.bool r) ∧ But b w w' ∧ DAt w' b s k d := by
  refine (curEnded b _ _ s k hk w h.at).mono ?_
  rintro e w' ⟨rfl, hb⟩
  exact ⟨by rw [hr], But.of_below hb, h.below hb⟩
theorem dFolded (b : Nat) (s p : ByteArray) (k : Nat) (d : Dt) (hp : lowL p.data.toList = p.data.toList) (hk : k ≤ s.size) (hs : s.size ≤ 1000000000) (w : World) (h : DAt w b s k d) :
    Calls Tryz.prog 83 #[.pointer (some ⟨b, 0, none⟩), .string p] w fun e w' =>
      (e = .returned (.bool true) ∧ k + p.size ≤ s.size ∧ lowL ((s.data.toList.drop k).take p.size) = p.data.toList ∧ DAt w' b s (k + p.size) d ∧ But b w w') ∨
      (e = .returned (.bool false) ∧ lowL ((s.data.toList.drop k).take p.size) ≠ p.data.toList ∧ DAt w' b s k d ∧ But b w w') := by
  refine (curFoldedH foldB (fun a p w ha => equalFold a p (by unfold maxLen; omega) w) b _ _ s p k hk hs w h.at).mono ?_
  have hx : ((s.extract k s.size).extract 0 p.size).data.toList = (s.data.toList.drop k).take p.size := by
    rw [Lib.extract_data, ext_drop]; simp
  have hf : foldB ((s.extract k s.size).extract 0 p.size) p = (lowL ((s.data.toList.drop k).take p.size) == p.data.toList) := by
    unfold foldB
    rw [List.map_congr_left fun b _ => lowU_low' b, List.map_congr_left fun b _ => lowU_low' b, hx]
    show (lowL _ == lowL p.data.toList) = _
    rw [hp]
  rw [hf]
  rintro e w' (⟨rfl, h1, h2, h3, h4⟩ | ⟨rfl, h2, h3, h4⟩)
  · exact .inl ⟨rfl, h1, by simpa using h2, DAt.of h3, h4⟩
  · refine .inr ⟨rfl, ?_, DAt.of' h3, h4⟩
    rcases h2 with h2 | h2
    · intro e
      have := congrArg List.length e
      simp only [lowL, List.length_map, List.length_take, List.length_drop, size_list] at this
      omega
    · simpa using h2

theorem dFail (b : Nat) (s : ByteArray) (j : Nat) (d : Dt) (w : World) (h : DAt w b s j d) :
    Calls Tryz.prog 187 #[.pointer (some ⟨b, 0, none⟩)] w fun e w' => e = .returned (.tuple #[]) ∧ DAt w' b s j { d with st := 13, qk := true } ∧ But b w w' := by
  have c2 : w.cell? ⟨b, 2, none⟩ = some (.int .i64 (d.st : Nat)) := h.cell 2
  have c11 : w.cell? ⟨b, 11, none⟩ = some (.bool d.qk) := h.cell 11
  have f2 := h.frozen 2
  have f11 := h.frozen 11
  have H := Lib.hid h
  clear h
  go_enter Tryz.func187, Tryz.ntmps187
  go_wp2_with fail
  go_end0
  exact ⟨rfl, (H.out.setSt 13).setQk true, (But.set _ _ _ _).trans (But.set _ _ _ _)⟩

def incB (st : Nat) : Bool := decide (st ≤ 1) || (decide (4 ≤ st) && decide (st ≤ 6)) || (decide (9 ≤ st) && decide (st ≤ 11))
theorem dIncomplete (b : Nat) (s : ByteArray) (j : Nat) (d : Dt) (hst : d.st ≤ 13) (w : World) (h : DAt w b s j d) :
    Calls Tryz.prog 131 #[.pointer (some ⟨b, 0, none⟩)] w fun e w' => e = .returned (.bool (incB d.st)) ∧ w' = w := by
  have c2 : w.cell? ⟨b, 2, none⟩ = some (.int .i64 (d.st : Nat)) := h.cell 2
  clear h
  obtain ⟨st, hs⟩ : ∃ st, st = d.st := ⟨_, rfl⟩
  rw [← hs] at c2 hst ⊢
  clear hs
  have hcase : st = 0 ∨ st = 1 ∨ st = 2 ∨ st = 3 ∨ st = 4 ∨ st = 5 ∨ st = 6 ∨ st = 7 ∨ st = 8 ∨ st = 9 ∨ st = 10 ∨ st = 11 ∨ st = 12 ∨ st = 13 := by omega
  rcases hcase with rfl | rfl | rfl | rfl | rfl | rfl | rfl | rfl | rfl | rfl | rfl | rfl | rfl | rfl
  all_goals
    go_enter Tryz.func131, Tryz.ntmps131
    go_wp2_with fail
    go_ret
    exact ⟨rfl, rfl⟩

theorem dFinished (b : Nat) (s : ByteArray) (j : Nat) (d : Dt) (hst : d.st ≤ 13) (hj : j ≤ s.size) (hs : s.size ≤ 10000000) (w : World) (h : DAt w b s j d) :
    Calls Tryz.prog 65 #[.pointer (some ⟨b, 0, none⟩)] w fun e w' =>
      (e = .returned (.bool true) ∧ j = s.size ∧ DAt w' b s j { d with qk := d.qk || decide (d.st ≠ 13) } ∧ But b w w') ∨
      (e = .returned (.bool true) ∧ [62].isPrefixOf (s.data.toList.drop j) = true ∧ j + 1 ≤ s.size ∧ DAt w' b s (j + 1) { d with qk := d.qk || incB d.st } ∧ But b w w') ∨
      (e = .returned (.bool false) ∧ j < s.size ∧ [62].isPrefixOf (s.data.toList.drop j) = false ∧ DAt w' b s j d ∧ But b w w') := by
  have HE := Lib.hid (dEnded b s j d hj _ rfl w h)
  have HS := Lib.hid hs
  have HJ := Lib.hid hj
  have HST := Lib.hid hst
  clear hs hst hj h
  by_cases hend : j = s.size
  · rw [decide_eq_true hend] at HE
    have HEND := Lib.hid hend
    clear hend
    obtain ⟨d0, hd0⟩ : ∃ d0, d0 = d := ⟨_, rfl⟩
    cases hqk : d.qk
    · by_cases h13 : d.st = 13
      · have hx : ((d.st : Int) != 13) = false := by rw [h13]; rfl
        have H13 := Lib.hid h13
        have HQK := Lib.hid hqk
        clear h13 hqk
        go_enter Tryz.func65, Tryz.ntmps65
        go_wp2_with fail
        refine HE.out.mono ?_
        rintro e w2 ⟨rfl, hb2, h2⟩
        have c2 : w2.cell? ⟨b, 2, none⟩ = some (.int .i64 (d.st : Nat)) := h2.cell 2
        have c11 : w2.cell? ⟨b, 11, none⟩ = some (.bool false) := by have := h2.cell 11; rw [this]; show some (Value.bool d.qk) = _; rw [HQK.out]
        have f11 := h2.frozen 11
        have H2 := Lib.hid h2
        clear h2
        go_wp2_with fail
        go_ret
        exact .inl ⟨rfl, HEND.out, (H2.out.setQk false).qk_eq (by simp [H13.out]), hb2.trans (But.set _ _ _ _)⟩
      · have hx : ((d.st : Int) != 13) = true := by rw [bne_iff_ne]; omega
        have H13 := Lib.hid h13
        have HQK := Lib.hid hqk
        clear h13 hqk
        go_enter Tryz.func65, Tryz.ntmps65
        go_wp2_with fail
        refine HE.out.mono ?_
        rintro e w2 ⟨rfl, hb2, h2⟩
        have c2 : w2.cell? ⟨b, 2, none⟩ = some (.int .i64 (d.st : Nat)) := h2.cell 2
        have c11 : w2.cell? ⟨b, 11, none⟩ = some (.bool false) := by have := h2.cell 11; rw [this]; show some (Value.bool d.qk) = _; rw [HQK.out]
        have f11 := h2.frozen 11
        have H2 := Lib.hid h2
        clear h2
        go_wp2_with fail
        go_ret
        exact .inl ⟨rfl, HEND.out, (H2.out.setQk true).qk_eq (by simp [H13.out]), hb2.trans (But.set _ _ _ _)⟩
    · have HQK := Lib.hid hqk
      clear hqk
      go_enter Tryz.func65, Tryz.ntmps65
      go_wp2_with fail
      refine HE.out.mono ?_
      rintro e w2 ⟨rfl, hb2, h2⟩
      have c2 : w2.cell? ⟨b, 2, none⟩ = some (.int .i64 (d.st : Nat)) := h2.cell 2
      have c11 : w2.cell? ⟨b, 11, none⟩ = some (.bool true) := by have := h2.cell 11; rw [this]; show some (Value.bool d.qk) = _; rw [HQK.out]
      have f11 := h2.frozen 11
      have H2 := Lib.hid h2
      clear h2
      go_wp2_with fail
      go_ret
      exact .inl ⟨rfl, HEND.out, (H2.out.setQk true).qk_eq (by simp), hb2.trans (But.set _ _ _ _)⟩
  · rw [decide_eq_false hend] at HE
    have HEND := Lib.hid (show j < s.size by have := HJ.out; omega)
    clear hend
    go_enter Tryz.func65, Tryz.ntmps65
    go_wp2_with fail
    refine HE.out.mono ?_
    rintro e w2 ⟨rfl, hb2, h2⟩
    have HT := Lib.hid (dTook b s ⟨#[62]⟩ j 1 d rfl HJ.out (by have := HS.out; omega) w2 h2)
    clear h2
    go_wp2_with fail
    refine HT.out.mono ?_
    rintro e w3 (⟨rfl, hp, hj1, h3, hb3⟩ | ⟨rfl, hp, h3, hb3⟩)
    · have HP := Lib.hid hp
      have HJ1 := Lib.hid hj1
      have HI := Lib.hid (dIncomplete b s (j + 1) d HST.out w3 h3)
      have c11 : w3.cell? ⟨b, 11, none⟩ = some (.bool d.qk) := h3.cell 11
      have f11 := h3.frozen 11
      have H3 := Lib.hid h3
      obtain ⟨i, hi⟩ : ∃ i, i = incB d.st := ⟨_, rfl⟩
      rw [← hi] at HI
      have HIN := Lib.hid hi
      clear hp hj1 h3 hi
      obtain ⟨qk, hqk⟩ : ∃ qk, qk = d.qk := ⟨_, rfl⟩
      rw [← hqk] at c11
      have HQK := Lib.hid hqk
      clear hqk
      cases qk
      · go_wp2_with fail
        refine HI.out.mono ?_
        rintro e w4 ⟨rfl, rfl⟩
        go_wp2_with fail
        go_ret
        refine .inr (.inl ⟨rfl, HP.out, HJ1.out, ?_, (hb2.trans hb3).trans (But.set _ _ _ _)⟩)
        rw [← HQK.out, Bool.false_or, ← HIN.out]
        exact H3.out.setQk i
      · go_wp2_with fail
        go_ret
        refine .inr (.inl ⟨rfl, HP.out, HJ1.out, ?_, (hb2.trans hb3).trans (But.set _ _ _ _)⟩)
        rw [← HQK.out, Bool.true_or]
        exact H3.out.setQk true
    · have HP := Lib.hid hp
      have H3 := Lib.hid h3
      clear hp h3
      go_wp2_with fail
      go_ret
      exact .inr (.inr ⟨rfl, HEND.out, HP.out, H3.out, hb2.trans hb3⟩)

theorem dKeyword (b : Nat) (s : ByteArray) (j : Nat) (d : Dt) (hj : j ≤ s.size) (hs : s.size ≤ 10000000) (w : World) (h : DAt w b s j d) :
    Calls Tryz.prog 133 #[.pointer (some ⟨b, 0, none⟩)] w fun e w' => e = .returned (.tuple #[]) ∧ But b w w' ∧ ∃ N, s.data.toList.drop (j + N) = sk (s.data.toList.drop j) ∧
      ((0 < N ∧ j + N ≤ s.size ∧ DAt w' b s (j + N) d) ∨
       (N = 0 ∧ j + 6 ≤ s.size ∧ lowL ((s.data.toList.drop j).take 6) = sPublic ∧ DAt w' b s (j + 6) { d with st := 4 }) ∨
       (N = 0 ∧ j + 6 ≤ s.size ∧ lowL ((s.data.toList.drop j).take 6) ≠ sPublic ∧ lowL ((s.data.toList.drop j).take 6) = sSystem ∧ DAt w' b s (j + 6) { d with st := 9 }) ∨
       (N = 0 ∧ lowL ((s.data.toList.drop j).take 6) ≠ sPublic ∧ lowL ((s.data.toList.drop j).take 6) ≠ sSystem ∧ DAt w' b s j { d with st := 13, qk := true })) := by
  have HS := Lib.hid hs
  have HJ := Lib.hid hj
  have HSp := Lib.hid (dSpaces b s j d hj (by omega) w h)
  clear hs hj h
  go_enter Tryz.func133, Tryz.ntmps133
  go_wp2_with fail
  refine HSp.out.mono ?_
  rintro e w2 ⟨N, f, rfl, hf, hsk, hjN, h2, hb2⟩
  have HSK := Lib.hid hsk
  have HJN := Lib.hid hjN
  by_cases hN : 0 < N
  · rw [decide_eq_true hN] at hf
    subst hf
    have HN := Lib.hid hN
    have H2 := Lib.hid h2
    clear hsk hjN hN h2
    go_wp2_with fail
    go_end0
    exact ⟨rfl, hb2, N, HSK.out, .inl ⟨HN.out, HJN.out, H2.out⟩⟩
  · rw [decide_eq_false hN] at hf
    subst hf
    have hN0 : N = 0 := by omega
    subst hN0
    rw [Nat.add_zero] at h2
    have HF := Lib.hid (dFolded b s ⟨#[112, 117, 98, 108, 105, 99]⟩ j d (by decide) HJ.out (by have := HS.out; omega) w2 h2)
    clear hsk hjN hN h2
    go_wp2_with fail
    refine HF.out.mono ?_
    rintro e w3 (⟨rfl, h61, hl, h3, hb3⟩ | ⟨rfl, hl, h3, hb3⟩)
    · have HL := Lib.hid hl
      have H61 := Lib.hid h61
      have c2 : w3.cell? ⟨b, 2, none⟩ = some (.int .i64 (d.st : Nat)) := h3.cell 2
      have f2 := h3.frozen 2
      have H3 := Lib.hid h3
      clear hl h61 h3
      go_wp2_with fail
      go_end0
      exact ⟨rfl, (hb2.trans hb3).trans (But.set _ _ _ _), 0, HSK.out, .inr (.inl ⟨rfl, H61.out, HL.out, H3.out.setSt 4⟩)⟩
    · have HL := Lib.hid hl
      have HF2 := Lib.hid (dFolded b s ⟨#[115, 121, 115, 116, 101, 109]⟩ j d (by decide) HJ.out (by have := HS.out; omega) w3 h3)
      clear hl h3
      go_wp2_with fail
      refine HF2.out.mono ?_
      rintro e w4 (⟨rfl, h61, hl, h4, hb4⟩ | ⟨rfl, hl, h4, hb4⟩)
      · have HL2 := Lib.hid hl
        have H61 := Lib.hid h61
        have c2 : w4.cell? ⟨b, 2, none⟩ = some (.int .i64 (d.st : Nat)) := h4.cell 2
        have f2 := h4.frozen 2
        have H4 := Lib.hid h4
        clear hl h61 h4
        go_wp2_with fail
        go_end0
        exact ⟨rfl, ((hb2.trans hb3).trans hb4).trans (But.set _ _ _ _), 0, HSK.out, .inr (.inr (.inl ⟨rfl, H61.out, HL.out, HL2.out, H4.out.setSt 9⟩))⟩
      · have HL2 := Lib.hid hl
        have HFa := Lib.hid (dFail b s j d w4 h4)
        clear hl h4
        go_wp2_with fail
        refine HFa.out.mono ?_
        rintro e w5 ⟨rfl, h5, hb5⟩
        have H5 := Lib.hid h5
        clear h5
        go_wp2_with fail
        go_end0
        exact ⟨rfl, ((hb2.trans hb3).trans hb4).trans hb5, 0, HSK.out, .inr (.inr (.inr ⟨rfl, HL.out, HL2.out, H5.out⟩))⟩

/-- What openIdentifier does: inside: the state; sy: the system identifier's. -/
def opened (d : Dt) (sy : Bool) (Q : ByteArray) : Dt := if sy then { d with q := Q, st := 11, hs := true } else { d with q := Q, st := 6, hp := true }
theorem dOpen (b : Nat) (s : ByteArray) (j : Nat) (d : Dt) (sy : Bool) (hj : j ≤ s.size) (hs : s.size ≤ 10000000) (w : World) (h : DAt w b s j d) :
    Calls Tryz.prog 134 #[.pointer (some ⟨b, 0, none⟩), .int .i64 (if sy then 11 else 6), .pointer (some ⟨b, if sy then 10 else 8, none⟩)] w fun e w' => e = .returned (.tuple #[]) ∧ But b w w' ∧ ∃ N, s.data.toList.drop (j + N) = sk (s.data.toList.drop j) ∧
      ((0 < N ∧ j + N ≤ s.size ∧ DAt w' b s (j + N) d) ∨
       (N = 0 ∧ j + 1 ≤ s.size ∧ ∃ (Q : ByteArray) (c : UInt8), Q.data.toList = [c] ∧ quU c = true ∧ s.data.toList.drop j = c :: s.data.toList.drop (j + 1) ∧ DAt w' b s (j + 1) (opened d sy Q)) ∨
       (N = 0 ∧ seesB (fun r => quB r) (s.data.toList.drop j) = false ∧ DAt w' b s j { d with st := 13, qk := true })) := by
  have HS := Lib.hid hs
  have HJ := Lib.hid hj
  have HSp := Lib.hid (dSpaces b s j d hj (by omega) w h)
  clear hs hj h
  cases sy
  all_goals
    simp only [Bool.false_eq_true, if_false, if_true]
    go_enter Tryz.func134, Tryz.ntmps134
    go_wp2_with fail
    refine HSp.out.mono ?_
    rintro e w2 ⟨N, f, rfl, hf, hsk, hjN, h2, hb2⟩
    have HSK := Lib.hid hsk
    have HJN := Lib.hid hjN
    by_cases hN : 0 < N
    · rw [decide_eq_true hN] at hf
      subst hf
      have HN := Lib.hid hN
      have H2 := Lib.hid h2
      clear hsk hjN hN h2
      go_wp2_with fail
      go_end0
      exact ⟨rfl, hb2, N, HSK.out, .inl ⟨HN.out, HJN.out, H2.out⟩⟩
    · rw [decide_eq_false hN] at hf
      subst hf
      have hN0 : N = 0 := by omega
      subst hN0
      rw [Nat.add_zero] at h2
      have HSe := Lib.hid (dSees 185 (fun args w => enters_of Tryz.func185 (by kernel_rfl) rfl args w) (fun r => quB r) b s j d HJ.out grows_quote w2 h2)
      obtain ⟨q, hq⟩ : ∃ q, q = seesB (fun r => quB r) (s.data.toList.drop j) := ⟨_, rfl⟩
      rw [← hq] at HSe
      have HQ := Lib.hid hq
      clear hsk hjN hN h2 hq
      cases q
      · go_wp2_with fail
        refine HSe.out.mono ?_
        rintro e w3 ⟨rfl, hb3, h3⟩
        have HFa := Lib.hid (dFail b s j d w3 h3)
        clear h3
        go_wp2_with fail
        refine HFa.out.mono ?_
        rintro e w5 ⟨rfl, h5, hb5⟩
        have H5 := Lib.hid h5
        clear h5
        go_wp2_with fail
        go_end0
        exact ⟨rfl, (hb2.trans hb3).trans hb5, 0, HSK.out, .inr (.inr ⟨rfl, HQ.out.symm, H5.out⟩)⟩
      · have hj1 : j + 1 ≤ s.size := by
          have hq := HQ.out
          have := HJ.out
          rcases Nat.lt_or_ge j s.size with hl | hl
          · exact hl
          · rw [drop_end s _ hl] at hq; cases hq
        have HJ1 := Lib.hid hj1
        clear hj1
        have hd := drop_byte s j HJ1.out
        have HD := Lib.hid hd
        clear hd
        go_wp2_with fail
        refine HSe.out.mono ?_
        rintro e w3 ⟨rfl, hb3, h3⟩
        have HTk := Lib.hid (dTake b s j 1 d HJ1.out (by have := HS.out; omega) w3 h3)
        clear h3
        go_wp2_with fail
        refine HTk.out.mono ?_
        rintro e w4 ⟨Q, rfl, hQ, _, h4, hb4⟩
        have hQ1 : Q.data.toList = [s[j]'HJ1.out] := by rw [hQ, HD.out]; rfl
        have hqc : quU (s[j]'HJ1.out) = true := by
          have := HQ.out
          rw [HD.out] at this
          rw [← q_qu]
          exact this.symm
        have HQ1 := Lib.hid hQ1
        have HQC := Lib.hid hqc
        have c2 : w4.cell? ⟨b, 2, none⟩ = some (.int .i64 (d.st : Nat)) := h4.cell 2
        have c3 : w4.cell? ⟨b, 3, none⟩ = some (.string d.q) := h4.cell 3
        have c8 : w4.cell? ⟨b, 8, none⟩ = some (.bool d.hp) := h4.cell 8
        have c10 : w4.cell? ⟨b, 10, none⟩ = some (.bool d.hs) := h4.cell 10
        have f2 := h4.frozen 2
        have f3 := h4.frozen 3
        have f8 := h4.frozen 8
        have f10 := h4.frozen 10
        have H4 := Lib.hid h4
        clear hQ h4 hQ1 hqc
        go_wp2_with fail
        go_end0
        first
          | exact ⟨rfl, ((((hb2.trans hb3).trans hb4).trans (But.set _ _ _ _)).trans (But.set _ _ _ _)).trans (But.set _ _ _ _), 0, HSK.out, .inr (.inl ⟨rfl, HJ1.out, Q, _, HQ1.out, HQC.out, HD.out, ((H4.out.setQ Q).setSt 6).setHp true⟩)⟩
          | exact ⟨rfl, ((((hb2.trans hb3).trans hb4).trans (But.set _ _ _ _)).trans (But.set _ _ _ _)).trans (But.set _ _ _ _), 0, HSK.out, .inr (.inl ⟨rfl, HJ1.out, Q, _, HQ1.out, HQC.out, HD.out, ((H4.out.setQ Q).setSt 11).setHs true⟩)⟩
end Go.Proofs.YtnfccckodgknjaaGreatDoor

namespace Go.Proofs.YtnfccckodgknjaaGreatDoor
open Go.RowKit Go.Shelf Go.Lib
set_option maxHeartbeats 4000000
set_option maxRecDepth 100000

theorem rid1 (b xb : Nat) (Q : ByteArray) (c : UInt8) (hQ : Q.data.toList = [c]) (hc : c.toNat < 128) (x : Nat) (w : World) (hx : w.cell? ⟨xb, 0, none⟩ = some (.pointer (some ⟨b, 0, none⟩))) (hcell : w.cell? ⟨b, 3, none⟩ = some (.string Q)) :
    Calls Tryz.prog 188 #[.int .i32 x, .pointer (some ⟨xb, 0, none⟩)] w fun e w' => e = .returned (.bool (decide ((x : Int) = 62) || decide ((x : Int) = c.toNat))) ∧ Below w.heap.size w w' := by
  have he := enc_one x c hc
  rw [← hQ] at he
  obtain ⟨r, hr⟩ : ∃ r, r = decide ((x : Int) = c.toNat) := ⟨_, rfl⟩
  rw [← hr] at he ⊢
  have HE := Lib.hid he
  by_cases h62 : (x : Int) = 62
  · rw [decide_eq_true h62, Bool.true_or]
    have hz : ((x : Int) == 62) = true := by rw [beq_iff_eq]; exact h62
    clear he hr hQ hc h62
    go_enter Tryz.func188, Tryz.ntmps188
    go_wp2_with fail
    go_ret
    exact ⟨rfl, Below.refl _ _⟩
  · rw [decide_eq_false h62, Bool.false_or]
    have hz : ((x : Int) == 62) = false := by rw [beq_eq_false_iff_ne]; exact h62
    clear he hr hQ hc h62
    go_enter Tryz.func188, Tryz.ntmps188
    go_wp2_with fail
    go_ret
    exact ⟨ret_bool (by rw [ByteArray.toList_eq, ByteArray.toList_eq]; exact HE.out), Below.refl _ _⟩

theorem q_id (c : UInt8) : (qOf fun r => decide ((r : Int) = 62) || decide ((r : Int) = c.toNat)) = fun b => b == 62 || b == c := by
  funext b
  have h1 : decide ((b.toNat : Int) = 62) = (b == 62) := by rw [Bool.eq_iff_iff]; simp [← UInt8.toNat_inj]; omega
  have h2 : decide ((b.toNat : Int) = c.toNat) = (b == c) := by rw [Bool.eq_iff_iff]; simp [← UInt8.toNat_inj]; omega
  show (decide ((b.toNat : Int) = 62) || decide ((b.toNat : Int) = c.toNat)) = _
  rw [h1, h2]

/-- The identifier set. -/
def named2 (d : Dt) (sy : Bool) (V : ByteArray) : Dt := if sy then { d with sys := V } else { d with pub := V }
theorem dRead (b : Nat) (s : ByteArray) (j : Nat) (d : Dt) (sy : Bool) (c : UInt8) (hQ : d.q.data.toList = [c]) (hc : quU c = true) (hj : j ≤ s.size) (hs : s.size ≤ 1000000) (m : Int) (w : World) (hm : w.cell? ⟨1, 0, none⟩ = some (.int .i64 m)) (h : DAt w b s j d) :
    Calls Tryz.prog 135 #[.pointer (some ⟨b, 0, none⟩), .int .i64 (if sy then 12 else 7), .pointer (some ⟨b, if sy then 9 else 7, none⟩)] w fun e w' => e = .returned (.tuple #[]) ∧ But b w w' ∧ ∃ (V : ByteArray), V.data.toList = nulL ((s.data.toList.drop j).take (idN c (s.data.toList.drop j))) ∧
      (([c].isPrefixOf (s.data.toList.drop (j + idN c (s.data.toList.drop j))) = true ∧ j + idN c (s.data.toList.drop j) + 1 ≤ s.size ∧ DAt w' b s (j + idN c (s.data.toList.drop j) + 1) { named2 d sy V with st := if sy then 12 else 7 }) ∨
       ([c].isPrefixOf (s.data.toList.drop (j + idN c (s.data.toList.drop j))) = false ∧ j + idN c (s.data.toList.drop j) ≤ s.size ∧ DAt w' b s (j + idN c (s.data.toList.drop j)) (named2 d sy V))) := by
  have HS := Lib.hid hs
  have HJ := Lib.hid hj
  have HM := Lib.hid hm
  have H0 := Lib.hid h
  have hbl := h.lt
  have hc128 : c.toNat < 128 := by
    unfold quU at hc
    rw [Bool.or_eq_true, beq_iff_eq, beq_iff_eq] at hc
    rcases hc with rfl | rfl <;> decide
  obtain ⟨n0, hn0⟩ : ∃ n0, n0 = idN c (s.data.toList.drop j) := ⟨_, rfl⟩
  rw [← hn0]
  have HN0 := Lib.hid hn0
  have hq1 : Boxed (w.alloc (.cells #[.pointer (some ⟨b, 0, none⟩)] 125)) w.heap.size 125 (.pointer (some ⟨b, 0, none⟩)) := Boxed.new _ _ _
  have hb1 : Below w.heap.size w (w.alloc (.cells #[.pointer (some ⟨b, 0, none⟩)] 125)) := below_alloc (Below.refl _ _) _
  obtain ⟨w1, hw1⟩ : ∃ w1, w1 = w.alloc (.cells #[.pointer (some ⟨b, 0, none⟩)] 125) := ⟨_, rfl⟩
  have HW1 := Lib.hid hw1
  rw [← hw1] at hq1 hb1
  have h1 := h.below hb1
  have hpg : PredGrows Tryz.prog 188 #[.pointer (some ⟨w.heap.size, 0, none⟩)] (fun r => decide ((r : Int) = 62) || decide ((r : Int) = c.toNat)) w1 :=
    fun W x _ hW => rid1 b w.heap.size d.q c hQ hc128 x W (boxed_below hq1 hW).cell ((h1.below hW).cell 3)
  have HU := Lib.hid (dUntil 188 #[.pointer (some ⟨w.heap.size, 0, none⟩)] (fun args w => enters_of Tryz.func188 (by kernel_rfl) rfl args w) (fun r => decide ((r : Int) = 62) || decide ((r : Int) = c.toNat)) false
    (fun r h _ => by rw [decide_eq_false (by omega), decide_eq_false (by omega)]; rfl) _ (q_id c) b s j d hj (by omega) w1 hpg h1)
  have x1 := hq1.cell
  have HQ1 := Lib.hid hq1
  have HC := Lib.hid hc
  have HQ := Lib.hid hQ
  have hne : w.heap.size ≠ b := by omega
  have hml := fun W (hb : But b w W) => ml_but HM.out H0.out.at hb
  have HML := Lib.hid hml
  clear hs hj hm h hc hn0 hw1 hq1 hQ hpg h1 hc128 hml
  cases sy
  · simp only [Bool.false_eq_true, if_false]
    go_enter Tryz.func135, Tryz.ntmps135
    go_wp2_with fail
    rw [← HW1.out]
    refine HU.out.mono ?_
    rintro e w2 ⟨N, V, hN, hjN, rfl, hV, hVz, h2, hb2⟩
    have hNn : N = n0 := by rw [hN, HN0.out]; rfl
    subst hNn
    have hbb : But b w w2 := (But.of_below hb1).trans hb2
    have HKe := Lib.hid (keptE m V (by have := HS.out; omega) w2 (HML.out w2 hbb))
    have HJN := Lib.hid hjN
    have HV := Lib.hid hV
    have H2 := Lib.hid h2
    have x2 := (boxed_but HQ1.out hb2 hne).cell
    have hx2 := boxed_but HQ1.out hb2 hne
    have HX2 := Lib.hid hx2
    clear hN hjN hV hVz h2 hb2 hx2
    go_wp2_with fail
    refine HKe.out.mono ?_
    rintro e w3 ⟨V3, rfl, hV3, _, hb3⟩
    have h3 := H2.out.below hb3
    have hx3 := boxed_below HX2.out hb3
    have x3 := hx3.cell
    have HX3 := Lib.hid hx3
    have HV3 := Lib.hid hV3
    have c7 : w3.cell? ⟨b, 7, none⟩ = some (.string d.pub) := h3.cell 7
    have c9 : w3.cell? ⟨b, 9, none⟩ = some (.string d.sys) := h3.cell 9
    have f7 := h3.frozen 7
    have f9 := h3.frozen 9
    have c3 : w3.cell? ⟨b, 3, none⟩ = some (.string d.q) := h3.cell 3
    have H3 := Lib.hid h3
    clear hV3 h3 hx3
    go_wp2_with fail
    obtain ⟨w4, hw4⟩ : ∃ w4, w4 = w3.setCell ⟨b, 7, none⟩ (.string V3) := ⟨_, rfl⟩
    rw [← hw4]
    have h4 : DAt w4 b s (j + N) (named2 d false V3) := by rw [hw4]; exact H3.out.setPub V3
    have hx4 : Boxed w4 w.heap.size 125 (.pointer (some ⟨b, 0, none⟩)) := by rw [hw4]; exact boxed_but HX3.out (But.set _ b _ _) hne
    have hbb4 : But b w w4 := by rw [hw4]; exact (hbb.trans (But.of_below hb3)).trans (But.set _ _ _ _)
    have x4 := hx4.cell
    have d3 : w4.cell? ⟨b, 3, none⟩ = some (.string d.q) := h4.cell 3
    have hqs : d.q.size = 1 := by rw [← size_list, HQ.out]; rfl
    by_cases hp : [c].isPrefixOf (s.data.toList.drop (j + N)) = true
    · have HT : Hid (∀ nn, Calls Tryz.prog 63 #[.pointer (some ⟨b, 0, none⟩), .string d.q] (w4.drewN nn) fun e w' => e = .returned (.bool true) ∧ j + N + 1 ≤ s.size ∧ DAt w' b s (j + N + 1) (named2 d false V3) ∧ But b w w' ∧ Boxed w' w.heap.size 125 (.pointer (some ⟨b, 0, none⟩))) := Lib.hid (by
        intro nn
        have hb0 : Below w4.heap.size w4 (w4.drewN nn) := _root_.Go.below_drewN (Below.refl _ _) nn
        refine (dTook b s d.q (j + N) 1 _ hqs HJN.out (by have := HS.out; omega) (w4.drewN nn) (h4.below hb0)).mono ?_
        rintro e w' (⟨rfl, _, g1, g2, g3⟩ | ⟨rfl, g1, _⟩)
        · exact ⟨rfl, g1, g2, (hbb4.trans (But.of_below hb0)).trans g3, boxed_but (boxed_below hx4 hb0) g3 hne⟩
        · rw [HQ.out, hp] at g1; cases g1)
      have HP := Lib.hid hp
      clear hp hw4 h4 hx4 c3 c7 c9 f7 f9 hqs
      go_region_with (go_at_call 63; refine (HT.out 1).mono ?_; rintro e w5 ⟨rfl, hj1, h5, hb5, hx5⟩; have x5 := hx5.cell; have g2 : w5.cell? ⟨b, 2, none⟩ = some (.int .i64 (d.st : Nat)) := h5.cell 2; have e2 := h5.frozen 2; have H5 := Lib.hid h5; have HJ1 := Lib.hid hj1; clear hj1 h5 hx5)
      all_goals
        go_wp2_with fail
        go_end0
        exact ⟨rfl, hb5.trans (But.set _ _ _ _), V3, by rw [HV3.out, HV.out], .inl ⟨HP.out, HJ1.out, H5.out.setSt 7⟩⟩
    · rw [Bool.not_eq_true] at hp
      have HT : Hid (∀ nn, Calls Tryz.prog 63 #[.pointer (some ⟨b, 0, none⟩), .string d.q] (w4.drewN nn) fun e w' => e = .returned (.bool false) ∧ DAt w' b s (j + N) (named2 d false V3) ∧ But b w w') := Lib.hid (by
        intro nn
        have hb0 : Below w4.heap.size w4 (w4.drewN nn) := _root_.Go.below_drewN (Below.refl _ _) nn
        refine (dTook b s d.q (j + N) 1 _ hqs HJN.out (by have := HS.out; omega) (w4.drewN nn) (h4.below hb0)).mono ?_
        rintro e w' (⟨rfl, g1, _⟩ | ⟨rfl, _, g2, g3⟩)
        · rw [HQ.out, hp] at g1; cases g1
        · exact ⟨rfl, g2, (hbb4.trans (But.of_below hb0)).trans g3⟩)
      have HP := Lib.hid hp
      clear hp hw4 h4 hx4 c3 c7 c9 f7 f9 hqs
      go_region_with (go_at_call 63; refine (HT.out 1).mono ?_; rintro e w5 ⟨rfl, h5, hb5⟩; have H5 := Lib.hid h5; clear h5)
      all_goals
        go_wp2_with fail
        go_end0
        exact ⟨rfl, hb5, V3, by rw [HV3.out, HV.out], .inr ⟨HP.out, HJN.out, H5.out⟩⟩
  · simp only [if_true]
    go_enter Tryz.func135, Tryz.ntmps135
    go_wp2_with fail
    rw [← HW1.out]
    refine HU.out.mono ?_
    rintro e w2 ⟨N, V, hN, hjN, rfl, hV, hVz, h2, hb2⟩
    have hNn : N = n0 := by rw [hN, HN0.out]; rfl
    subst hNn
    have hbb : But b w w2 := (But.of_below hb1).trans hb2
    have HKe := Lib.hid (keptE m V (by have := HS.out; omega) w2 (HML.out w2 hbb))
    have HJN := Lib.hid hjN
    have HV := Lib.hid hV
    have H2 := Lib.hid h2
    have x2 := (boxed_but HQ1.out hb2 hne).cell
    have hx2 := boxed_but HQ1.out hb2 hne
    have HX2 := Lib.hid hx2
    clear hN hjN hV hVz h2 hb2 hx2
    go_wp2_with fail
    refine HKe.out.mono ?_
    rintro e w3 ⟨V3, rfl, hV3, _, hb3⟩
    have h3 := H2.out.below hb3
    have hx3 := boxed_below HX2.out hb3
    have x3 := hx3.cell
    have HX3 := Lib.hid hx3
    have HV3 := Lib.hid hV3
    have c7 : w3.cell? ⟨b, 7, none⟩ = some (.string d.pub) := h3.cell 7
    have c9 : w3.cell? ⟨b, 9, none⟩ = some (.string d.sys) := h3.cell 9
    have f7 := h3.frozen 7
    have f9 := h3.frozen 9
    have c3 : w3.cell? ⟨b, 3, none⟩ = some (.string d.q) := h3.cell 3
    have H3 := Lib.hid h3
    clear hV3 h3 hx3
    go_wp2_with fail
    obtain ⟨w4, hw4⟩ : ∃ w4, w4 = w3.setCell ⟨b, 9, none⟩ (.string V3) := ⟨_, rfl⟩
    rw [← hw4]
    have h4 : DAt w4 b s (j + N) (named2 d true V3) := by rw [hw4]; exact H3.out.setSys V3
    have hx4 : Boxed w4 w.heap.size 125 (.pointer (some ⟨b, 0, none⟩)) := by rw [hw4]; exact boxed_but HX3.out (But.set _ b _ _) hne
    have hbb4 : But b w w4 := by rw [hw4]; exact (hbb.trans (But.of_below hb3)).trans (But.set _ _ _ _)
    have x4 := hx4.cell
    have d3 : w4.cell? ⟨b, 3, none⟩ = some (.string d.q) := h4.cell 3
    have hqs : d.q.size = 1 := by rw [← size_list, HQ.out]; rfl
    by_cases hp : [c].isPrefixOf (s.data.toList.drop (j + N)) = true
    · have HT : Hid (∀ nn, Calls Tryz.prog 63 #[.pointer (some ⟨b, 0, none⟩), .string d.q] (w4.drewN nn) fun e w' => e = .returned (.bool true) ∧ j + N + 1 ≤ s.size ∧ DAt w' b s (j + N + 1) (named2 d true V3) ∧ But b w w' ∧ Boxed w' w.heap.size 125 (.pointer (some ⟨b, 0, none⟩))) := Lib.hid (by
        intro nn
        have hb0 : Below w4.heap.size w4 (w4.drewN nn) := _root_.Go.below_drewN (Below.refl _ _) nn
        refine (dTook b s d.q (j + N) 1 _ hqs HJN.out (by have := HS.out; omega) (w4.drewN nn) (h4.below hb0)).mono ?_
        rintro e w' (⟨rfl, _, g1, g2, g3⟩ | ⟨rfl, g1, _⟩)
        · exact ⟨rfl, g1, g2, (hbb4.trans (But.of_below hb0)).trans g3, boxed_but (boxed_below hx4 hb0) g3 hne⟩
        · rw [HQ.out, hp] at g1; cases g1)
      have HP := Lib.hid hp
      clear hp hw4 h4 hx4 c3 c7 c9 f7 f9 hqs
      go_region_with (go_at_call 63; refine (HT.out 1).mono ?_; rintro e w5 ⟨rfl, hj1, h5, hb5, hx5⟩; have x5 := hx5.cell; have g2 : w5.cell? ⟨b, 2, none⟩ = some (.int .i64 (d.st : Nat)) := h5.cell 2; have e2 := h5.frozen 2; have H5 := Lib.hid h5; have HJ1 := Lib.hid hj1; clear hj1 h5 hx5)
      all_goals
        go_wp2_with fail
        go_end0
        exact ⟨rfl, hb5.trans (But.set _ _ _ _), V3, by rw [HV3.out, HV.out], .inl ⟨HP.out, HJ1.out, H5.out.setSt 12⟩⟩
    · rw [Bool.not_eq_true] at hp
      have HT : Hid (∀ nn, Calls Tryz.prog 63 #[.pointer (some ⟨b, 0, none⟩), .string d.q] (w4.drewN nn) fun e w' => e = .returned (.bool false) ∧ DAt w' b s (j + N) (named2 d true V3) ∧ But b w w') := Lib.hid (by
        intro nn
        have hb0 : Below w4.heap.size w4 (w4.drewN nn) := _root_.Go.below_drewN (Below.refl _ _) nn
        refine (dTook b s d.q (j + N) 1 _ hqs HJN.out (by have := HS.out; omega) (w4.drewN nn) (h4.below hb0)).mono ?_
        rintro e w' (⟨rfl, g1, _⟩ | ⟨rfl, _, g2, g3⟩)
        · rw [HQ.out, hp] at g1; cases g1
        · exact ⟨rfl, g2, (hbb4.trans (But.of_below hb0)).trans g3⟩)
      have HP := Lib.hid hp
      clear hp hw4 h4 hx4 c3 c7 c9 f7 f9 hqs
      go_region_with (go_at_call 63; refine (HT.out 1).mono ?_; rintro e w5 ⟨rfl, h5, hb5⟩; have H5 := Lib.hid h5; clear h5)
      all_goals
        go_wp2_with fail
        go_end0
        exact ⟨rfl, hb5, V3, by rw [HV3.out, HV.out], .inr ⟨HP.out, HJN.out, H5.out⟩⟩
end Go.Proofs.YtnfccckodgknjaaGreatDoor
