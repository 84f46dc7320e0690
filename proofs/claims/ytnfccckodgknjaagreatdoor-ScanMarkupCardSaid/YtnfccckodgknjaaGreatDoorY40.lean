/-
  Attributes.
-/
import Derived.Test.YtnfccckodgknjaaGreatDoorY38
import Derived.Test.YtnfccckodgknjaaGreatDoorY27
import Derived.Test.YtnfccckodgknjaaGreatDoorY06
import Derived.Deep.AppendLies
namespace Go.Proofs.YtnfccckodgknjaaGreatDoor
open Go.RowKit Go.Shelf Go.Lib
set_option maxHeartbeats 2000000
set_option maxRecDepth 100000

def attrCells (acc : AttL) : List Value := acc.flatMap fun a => [.int .i64 0, .string (bl a.1), .string (bl a.2)]
theorem attrCells_snoc (acc : AttL) (n v : List UInt8) : attrCells (acc ++ [(n, v)]) = attrCells acc ++ [.int .i64 0, .string (bl n), .string (bl v)] := by simp [attrCells]
theorem info_attr : (Tryz.prog.info? 31).map (fun i => (i.zero, i.size, i.bytes)) = some (some (.agg #[.int .i64 0, .string ⟨#[]⟩, .string ⟨#[]⟩]), 3, 40) := by kernel_rfl

theorem ownA_but {w w' : World} {B b n : Nat} {c : Array Value} {s : ByteArray} {k : Nat} {v : Value} {xs : List Value} (h : w.ownsRow B 31 3 v n xs) (hat : At w b c 79 s k) (hb : But b w w') : w'.ownsRow B 31 3 v n xs := by
  refine h.kept hb ?_
  rcases h.2 with ⟨rfl, _⟩ | ⟨g, cap, cur, rfl, _, hg, _⟩
  · exact .inl rfl
  · right
    intro e
    have e' : g = b := by simpa [Value.ownBlock] using e
    subst e'
    rw [hat.blk] at hg
    cases hg
theorem ownA_below {w w' : World} {B n : Nat} {v : Value} {xs : List Value} (h : w.ownsRow B 31 3 v n xs) (hb : Below w.heap.size w w') : w'.ownsRow B 31 3 v n xs := by
  refine h.kept (row := none) ⟨hb.os, hb.tape, hb.output, hb.size, fun i hi _ => hb.block i hi⟩ ?_
  rcases h.2 with ⟨rfl, _⟩ | ⟨g, cap, cur, rfl, _⟩
  · exact .inl rfl
  · right; simp [Value.ownBlock]

/-- What stands in memory besides the cursor. -/
structure Atm (B cb mb : Nat) (v : Value) (acc : AttL) (w wr : World) : Prop where
  seen : Seen wr mb acc.length (knownL acc)
  row : wr.ownsRow B 31 3 v acc.length (attrCells acc)
  bel : Below B w wr
theorem atm_but {B cb mb : Nat} {v : Value} {acc : AttL} {w wr w' : World} {c : Array Value} {s : ByteArray} {k : Nat} (h : Atm B cb mb v acc w wr) (hw : B ≤ w.heap.size) (hne : mb ≠ cb) (hBc : B ≤ cb) (hat : At wr cb c 79 s k) (hb : But cb wr w') : Atm B cb mb v acc w w' :=
  ⟨h.seen.grown hb (fun e => hne (by cases e; rfl)), ownA_but h.row hat hb, But.below h.bel hb (Nat.le_trans hw h.bel.size) hBc⟩
theorem atm_below {B cb mb : Nat} {v : Value} {acc : AttL} {w wr w' : World} (h : Atm B cb mb v acc w wr) (hw : B ≤ w.heap.size) (hb : Below wr.heap.size wr w') : Atm B cb mb v acc w w' :=
  ⟨h.seen.below hb, ownA_below h.row hb, h.bel.trans (hb.mono (Nat.le_trans hw h.bel.size))⟩

theorem at_step_attr {R : RefF} {s : ByteArray} {acc : AttL} {j N : Nat} {nm V : ByteArray} {cm : Bool} {res : Option (AttL × Bool × List UInt8)}
    (hst : res = match s.data.toList.drop j with
      | [] => none
      | b :: r =>
        if b = 62 then some (acc, false, r)
        else if b = 47 then (if r.head? = some 62 then some (acc, true, r.drop 1) else atG R acc r)
        else if (atRest r).head? = some 61 then (match vaL R ((atRest r).drop 1) with | none => none | some p => atG R (addL acc (atName b r) p.1) p.2)
        else atG R (addL acc (atName b r) []) (atRest r))
    (h : AtP R s j nm V cm N) (h62 : [62].isPrefixOf (s.data.toList.drop j) = false) (h47 : [47].isPrefixOf (s.data.toList.drop j) = false) :
    (cm = true ∧ atG R (addL acc nm.data.toList V.data.toList) (s.data.toList.drop N) = res) ∨ (cm = false ∧ N = s.size ∧ res = none) := by
  obtain ⟨b, r, hd, hn, hor⟩ := h
  rw [hd] at hst h62 h47
  have n62 : b ≠ 62 := by rintro rfl; simp [List.isPrefixOf] at h62
  have n47 : b ≠ 47 := by rintro rfl; simp [List.isPrefixOf] at h47
  simp only at hst
  rw [if_neg n62, if_neg n47] at hst
  rcases hor with ⟨h1, h2, h3, h4⟩ | ⟨h1, ⟨h2, h3⟩ | ⟨h2, h3, h4⟩⟩
  · rw [if_neg h1] at hst
    left
    refine ⟨h2, ?_⟩
    rw [hst, hn, h3, h4]
  · rw [if_pos h1, h3] at hst
    left
    refine ⟨h2, ?_⟩
    rw [hst, hn]
  · rw [if_pos h1, h3] at hst
    exact .inr ⟨h2, h4, hst⟩
theorem ownA_map {w w' : World} {B b k n : Nat} {f : List UInt8 → Bool} {v : Value} {xs : List Value} (h : w.ownsRow B 31 3 v n xs) (hs : Seen w b k f) (hb : w.grownBy w' (some b)) : w'.ownsRow B 31 3 v n xs := by
  refine h.kept hb ?_
  obtain ⟨D, ⟨es, cl, hm, _⟩, _⟩ := hs
  rcases h.2 with ⟨rfl, _⟩ | ⟨g, cap, cur, rfl, _, hg, _⟩
  · exact .inl rfl
  · right
    intro e
    have e' : g = b := by simpa [Value.ownBlock] using e
    subst e'
    rw [hm] at hg
    cases hg
theorem ownA_ne {w : World} {B n g : Nat} {v : Value} {xs : List Value} {o : Obj} (h : w.ownsRow B 31 3 v n xs) (hg : w.heap[g]? = some o) (ho : ∀ c fz, o ≠ .cells c 31 fz) : some g ≠ v.ownBlock := by
  rcases h.2 with ⟨rfl, _⟩ | ⟨g', cap, cur, rfl, _, hg', _⟩
  · simp [Value.ownBlock]
  · intro e
    have e' : g = g' := by simpa [Value.ownBlock] using e
    subst e'
    rw [hg] at hg'
    cases hg'
    exact ho _ _ rfl
theorem at_own {w w' : World} {B n b : Nat} {v : Value} {xs : List Value} {c : Array Value} {s : ByteArray} {k : Nat} (h : w.ownsRow B 31 3 v n xs) (hat : At w b c 79 s k) (hg : w.grownBy w' v.ownBlock) : At w' b c 79 s k :=
  hat.same (hg.block b hat.lt (ownA_ne h hat.blk (fun _ _ e => by injection e with e1 e2; exact absurd e2 (by decide))))
theorem seen_own {w w' : World} {B n b k : Nat} {v : Value} {xs : List Value} {f : List UInt8 → Bool} (h : w.ownsRow B 31 3 v n xs) (hs : Seen w b k f) (hg : w.grownBy w' v.ownBlock) : Seen w' b k f := by
  have hs2 := hs
  obtain ⟨D, ⟨es, cl, hm, _⟩, _⟩ := hs2
  exact hs.grown hg (ownA_ne h hm (fun _ _ e => by cases e))

theorem three_cell (w : World) (T : TypeId) (a b c : Value) : ∀ (j : Nat) (u : Value), [a, b, c][j]? = some u → (w.alloc (.cells #[a, b, c] T)).cell? ((⟨w.heap.size, 0, none⟩ : Addr).add j) = some u := by
  intro j u h
  have hg : (w.alloc (.cells #[a, b, c] T)).heap[w.heap.size]? = some (.cells #[a, b, c] T (0, 0)) := by
    show (w.heap.push _)[w.heap.size]? = _
    exact Array.getElem?_push_size
  have hadd : (⟨w.heap.size, 0, none⟩ : Addr).add j = ⟨w.heap.size, j, none⟩ := by unfold Addr.add; split <;> simp_all
  rw [hadd, heap_cell hg]
  simpa using h
theorem three_one (n v : ByteArray) : ∀ u ∈ [Value.int .i64 0, .string n, .string v], u.oneCell' = true := by
  intro u hu
  simp only [List.mem_cons, List.not_mem_nil, or_false] at hu
  rcases hu with rfl | rfl | rfl <;> rfl

theorem attributesC (lg : List UInt8 → Nat × List UInt8) (HLG : Hid (LgOk lg)) (s : ByteArray) (a : Int) (m : Int) (hs : s.size ≤ 1000000) (w : World) (hc : CtlW w) (hm : w.cell? ⟨1, 0, none⟩ = some (.int .i64 m)) :
    Calls Tryz.prog 18 #[.string s, .int .i64 a] w fun e w' => ∃ (v : Value) (sc cl : Bool) (N : Nat) (acc : AttL), e = .returned (.tuple #[v, .bool sc, .bool cl, .int .i64 N]) ∧ Below w.heap.size w w' ∧ clip s a ≤ N ∧ N ≤ s.size ∧
      w'.ownsRow w.heap.size 31 3 v acc.length (attrCells acc) ∧ acc.length ≤ s.size ∧
      ((cl = true ∧ atL (refL lg true) (tlS s a) = some (acc, sc, s.data.toList.drop N)) ∨ (cl = false ∧ sc = false ∧ v = .slice none 0 0 ∧ acc = [] ∧ N = s.size ∧ atL (refL lg true) (tlS s a) = none)) := by
  have HC := Lib.hid (cursorAt s a (by unfold maxLen; omega))
  have HM := Lib.hid hm
  have HCt := Lib.hid hc
  have hk := clip_le s a
  unfold tlS
  generalize clip s a = k at HC hk ⊢
  have HK := Lib.hid hk
  have HS := Lib.hid hs
  have hmm := @run_makeMap Tryz.prog
  clear hm hk hs hc
  go_enter Tryz.func18, Tryz.ntmps18
  go_wp2_with fail
  refine (HC.out _).mono ?_
  rintro e w1 ⟨rfl, hb1⟩
  go_wp2_with fail
  have hat : At (w1.alloc (.cells #[.string s, .int .i64 k] 79)) w1.heap.size #[.string s, .int .i64 k] 79 s k := at_new rfl
  obtain ⟨w2, hw2⟩ : ∃ w2, w2 = w1.alloc (.cells #[.string s, .int .i64 k] 79) := ⟨_, rfl⟩
  rw [← hw2] at hat ⊢
  have hB2 : Below w.heap.size w w2 := by rw [hw2]; exact below_alloc hb1 _
  have hle : w.heap.size ≤ w1.heap.size := hb1.size
  have hsz2 : w2.heap.size = w1.heap.size + 1 := by rw [hw2]; simp
  have hA2 : Atm w.heap.size w1.heap.size w2.heap.size (.slice none 0 0) [] w (w2.alloc (.map #[] 0)) := ⟨Seen.made w2, World.ownsRow_nil _ _ _ _, below_alloc hB2 _⟩
  have hat3 := hat.below (below_alloc (Below.refl w2.heap.size w2) (.map #[] 0))
  obtain ⟨w3, hw3⟩ : ∃ w3, w3 = w2.alloc (.map #[] 0) := ⟨_, rfl⟩
  rw [← hw3] at hA2 hat3 ⊢
  rw [hsz2] at hA2
  generalize w1.heap.size = cb at hA2 hat3 hle
  clear hw2 hw3 hat hB2 hsz2 hb1 hmm
  go_wp2_with fail
  go_loopg [4] (s.size - k) (fun gn v wr => ∃ (acc : AttL) (j : Nat), gn = s.size - j ∧ k ≤ j ∧ j ≤ s.size ∧ acc.length ≤ j ∧ atG (refL lg true) acc (s.data.toList.drop j) = atL (refL lg true) (s.data.toList.drop k) ∧ At wr cb #[.string s, .int .i64 j] 79 s j ∧ Atm w.heap.size cb (cb + 1) v acc w wr)
  case atStart => exact ⟨[], k, rfl, Nat.le_refl _, HK.out, Nat.zero_le _, rfl, hat3, hA2⟩
  case round =>
    obtain ⟨acc, j, hgn, hkj, hjs, hal, heq, hat, hA⟩ := hrel
    have HGN := Lib.hid hgn
    have HKJ := Lib.hid hkj
    have HJS := Lib.hid hjs
    have HAL := Lib.hid hal
    have HEQ := Lib.hid heq
    have hmc : cb + 1 ≠ cb := by omega
    have HSp := Lib.hid (spacesE cb 79 s j hjs (by have := HS.out; omega) wr hat)
    have HA := Lib.hid hA
    have HAT := Lib.hid hat
    clear hgn hkj hjs hal heq hA hA2 hat3 hat
    go_wp2_with fail
    refine HSp.out.mono ?_
    rintro e w4 ⟨n1, f1, rfl, _, hsk, hj1, h4, hB4⟩
    have hA4 := atm_but HA.out (Nat.le_refl _) hmc hle HAT.out hB4
    have HSK := Lib.hid hsk
    have HJ1 := Lib.hid hj1
    have HE := Lib.hid (endedE cb _ 79 s (j + n1) hj1 _ rfl w4 h4)
    have hstep := atG_step (refL lg true) acc (s.data.toList.drop j)
    rw [← hsk, HEQ.out] at hstep
    have HST := Lib.hid hstep
    obtain ⟨j1, hj1e⟩ : ∃ j1, j1 = j + n1 := ⟨_, rfl⟩
    rw [← hj1e] at HE HSK HJ1 HST h4
    have HJJ := Lib.hid (show j ≤ j1 by omega)
    clear hsk hj1 hstep h4 hj1e
    by_cases hend : j1 = s.size
    · rw [decide_eq_true hend] at HE
      have hst := HST.out
      rw [hend, drop_end s _ (Nat.le_refl _)] at hst
      have HR := Lib.hid (show atL (refL lg true) (s.data.toList.drop k) = none from hst)
      have HEND := Lib.hid hend
      clear hend hst
      go_wp2_with fail
      refine HE.out.mono ?_
      rintro e w5 ⟨rfl, hb5, h5⟩
      have hA5 := atm_below hA4 (Nat.le_refl _) hb5
      have c1 := h5.cell1
      go_wp2_with fail
      go_quiet (fail)
      go_wp2_with fail
      refine bodyPost_ret (v := .tuple #[.slice none 0 0, .bool false, .bool false, .int .i64 j1]) (by simp [results, Tryz.results18, go_sem]) rfl ⟨_, _, _, j1, [], rfl, _root_.Go.below_drewN hA5.bel nq, ?_, HJ1.out, World.ownsRow_nil _ _ _ _, Nat.zero_le _, .inr ⟨rfl, rfl, rfl, rfl, HEND.out, HR.out⟩⟩
      have := HKJ.out; have := HJJ.out; omega
    · rw [decide_eq_false hend] at HE
      have hj1s : j1 < s.size := by have := HJ1.out; omega
      have HJ1S := Lib.hid hj1s
      clear hend hj1s
      go_wp2_with fail
      refine HE.out.mono ?_
      rintro e w5 ⟨rfl, hb5, h5⟩
      have hA5 := atm_below hA4 (Nat.le_refl _) hb5
      have HT := Lib.hid (tookE cb _ 79 s ⟨#[47, 62]⟩ j1 2 rfl HJ1.out (by have := HS.out; omega) w5 h5)
      have H5 := Lib.hid h5
      have HA5 := Lib.hid hA5
      clear h5 hA5 hA4
      go_wp2_with fail
      refine HT.out.mono ?_
      rintro e w6 (⟨rfl, hp, hj2, h6, hB6⟩ | ⟨rfl, hp, h6, hB6⟩)
      · have hA6 := atm_but HA5.out (Nat.le_refl _) hmc hle H5.out hB6
        have c1 := h6.cell1
        have HP := Lib.hid hp
        have HJ2 := Lib.hid hj2
        have HA6 := Lib.hid hA6
        clear hp hj2 hA6
        go_wp2_with fail
        go_quiet (fail)
        go_wp2_with fail
        have hst := HST.out
        rw [pre_two HP.out] at hst
        simp only at hst
        rw [if_neg (by decide), if_pos trivial, List.head?_cons, if_pos rfl] at hst
        refine bodyPost_ret (v := .tuple #[u4, .bool true, .bool true, .int .i64 ((j1 + 2 : Nat) : Int)]) (by simp [results, Tryz.results18, go_sem]) rfl ⟨_, _, _, j1 + 2, acc, rfl, _root_.Go.below_drewN HA6.out.bel nq, ?_, HJ2.out, HA6.out.row, ?_, .inl ⟨rfl, hst⟩⟩
        · have := HKJ.out; have := HJJ.out; omega
        · have := HAL.out; have := HJS.out; omega
      · have hA6 := atm_but HA5.out (Nat.le_refl _) hmc hle H5.out hB6
        have HP := Lib.hid hp
        have HA6 := Lib.hid hA6
        have H6 := Lib.hid h6
        have HT2 := Lib.hid (tookE cb _ 79 s ⟨#[62]⟩ j1 1 rfl HJ1.out (by have := HS.out; omega) w6 h6)
        clear hp hA6 h6 hB6
        go_wp2_with fail
        refine HT2.out.mono ?_
        rintro e w7 (⟨rfl, hp2, hj2, h7, hB7⟩ | ⟨rfl, hp2, h7, hB7⟩)
        · have hA7 := atm_but HA6.out (Nat.le_refl _) hmc hle H6.out hB7
          have c1 := h7.cell1
          have HP2 := Lib.hid hp2
          have HJ2 := Lib.hid hj2
          have HA7 := Lib.hid hA7
          clear hp2 hj2 hA7
          go_wp2_with fail
          go_quiet (fail)
          go_wp2_with fail
          have hst := HST.out
          rw [pre_1 HP2.out] at hst
          simp only at hst
          rw [if_pos trivial] at hst
          refine bodyPost_ret (v := .tuple #[u4, .bool false, .bool true, .int .i64 ((j1 + 1 : Nat) : Int)]) (by simp [results, Tryz.results18, go_sem]) rfl ⟨_, _, _, j1 + 1, acc, rfl, _root_.Go.below_drewN HA7.out.bel nq, ?_, HJ2.out, HA7.out.row, ?_, .inl ⟨rfl, hst⟩⟩
          · have := HKJ.out; have := HJJ.out; omega
          · have := HAL.out; have := HJS.out; omega
        · have hA7 := atm_but HA6.out (Nat.le_refl _) hmc hle H6.out hB7
          have HP2 := Lib.hid hp2
          have HA7 := Lib.hid hA7
          have H7 := Lib.hid h7
          have HT3 := Lib.hid (tookE cb _ 79 s ⟨#[47]⟩ j1 1 rfl HJ1.out (by have := HS.out; omega) w7 h7)
          clear hp2 hA7 h7 hB7
          go_wp2_with fail
          refine HT3.out.mono ?_
          rintro e w8 (⟨rfl, hp3, hj2, h8, hB8⟩ | ⟨rfl, hp3, h8, hB8⟩)
          · have hA8 := atm_but HA7.out (Nat.le_refl _) hmc hle H7.out hB8
            have HP3 := Lib.hid hp3
            have HJ2 := Lib.hid hj2
            have HA8 := Lib.hid hA8
            have H8 := Lib.hid h8
            clear hp3 hj2 hA8 h8 hB8
            go_wp2_with fail
            go_roundg (s.size - (j1 + 1))
            case measure => have := HGN.out; have := HJJ.out; have := HJ2.out; omega
            case rel =>
              have hst := HST.out
              have hd := pre_1 HP3.out
              have hne : ¬ (s.data.toList.drop (j1 + 1)).head? = some 62 := by
                intro e
                have hp := HP.out
                rw [hd] at hp
                have e2 := (pre_head _ _).2 e
                cases hx : s.data.toList.drop (j1 + 1) with
                | nil => rw [hx] at e; simp at e
                | cons y t =>
                  rw [hx] at hp e
                  simp at e
                  subst e
                  simp [List.isPrefixOf] at hp
              rw [hd] at hst
              simp only at hst
              rw [if_neg (by decide), if_pos trivial, if_neg hne] at hst
              exact ⟨acc, j1 + 1, rfl, by have := HKJ.out; have := HJJ.out; omega, HJ2.out, by have := HAL.out; have := HJJ.out; omega, hst.symm, H8.out, HA8.out⟩
          · have hA8 := atm_but HA7.out (Nat.le_refl _) hmc hle H7.out hB8
            have HP3 := Lib.hid hp3
            have HA8 := Lib.hid hA8
            have H8 := Lib.hid h8
            have HAt := Lib.hid (attributeC lg HLG cb 79 s j1 HJ1S.out HS.out m w8 (HCt.out.below hA8.bel) (carry HM.out hA8.bel) h8)
            clear hp3 hA8 h8 hB8
            go_wp2_with fail
            refine HAt.out.mono ?_
            rintro e w9 ⟨nm, V, cm, N, rfl, hN1, hN2, hatp, h9, hB9⟩
            have hA9 := atm_but HA8.out (Nat.le_refl _) hmc hle H8.out hB9
            have hres := at_step_attr HST.out hatp HP2.out HP3.out
            have HRES := Lib.hid hres
            have HN1 := Lib.hid hN1
            have HN2 := Lib.hid hN2
            have HA9 := Lib.hid hA9
            have H9 := Lib.hid h9
            have hnz : nm.size ≤ 3000000 := by
              obtain ⟨b0, r0, hd0, hn0, _⟩ := hatp
              rw [← size_list, hn0]
              unfold atName lowL
              rw [List.length_map]
              have e1 := nulL_len (b0 :: r0.take (runN eqU r0))
              have e2 : (b0 :: r0.take (runN eqU r0)).length ≤ s.size := by
                have e3 := congrArg List.length hd0
                rw [List.length_drop, size_list, List.length_cons] at e3
                rw [List.length_cons, List.length_take]
                omega
              have := HS.out
              omega
            have HNZ := Lib.hid hnz
            clear hN1 hN2 hatp hres h9 hA9 hB9 hnz
            obtain ⟨wa, hwa⟩ : ∃ wa, wa = w9.alloc (.cells #[.int .i64 0, .string nm, .string V] 31) := ⟨_, rfl⟩
            have hba : Below w9.heap.size w9 wa := by rw [hwa]; exact below_alloc (Below.refl _ _) _
            have haa : wa.heap[w9.heap.size]? = some (.cells #[.int .i64 0, .string nm, .string V] 31 (0, 0)) := by rw [hwa]; show (w9.heap.push _)[w9.heap.size]? = _; exact Array.getElem?_push_size
            have hAa := atm_below HA9.out (Nat.le_refl _) hba
            have hta := H9.out.below hba
            have hlook := hAa.seen.look nm (by unfold maxLen; have := HNZ.out; omega)
            have ca1 : wa.cell? ⟨w9.heap.size, 1, none⟩ = some (.string nm) := heap_cell haa 1
            have HAA := Lib.hid haa
            have HAa := Lib.hid hAa
            have HTa := Lib.hid hta
            have HWA := Lib.hid hwa
            clear haa hAa hta hba
            cases cm
            · have hr : N = s.size ∧ atL (refL lg true) (s.data.toList.drop k) = none := by
                rcases HRES.out with ⟨h, _⟩ | ⟨_, h⟩
                · cases h
                · exact h
              have HR := Lib.hid hr
              clear hr hwa hlook ca1
              go_wp2_with fail
              rw [← HWA.out]
              go_roundg (s.size - N)
              case measure => have := HGN.out; have := HJJ.out; have := HN1.out; have := HN2.out; have := HJ1S.out; omega
              case rel =>
                have := HKJ.out; have := HJJ.out; have := HN1.out; have := HAL.out
                exact ⟨acc, N, rfl, by omega, HN2.out, by omega, by rw [HR.out.1, drop_end s _ (Nat.le_refl _), HR.out.2]; rfl, HTa.out, HAa.out⟩
            · have hr : atG (refL lg true) (addL acc nm.data.toList V.data.toList) (s.data.toList.drop N) = atL (refL lg true) (s.data.toList.drop k) := by
                rcases HRES.out with ⟨_, h⟩ | ⟨h, _⟩
                · exact h
                · cases h
              have HR := Lib.hid hr
              obtain ⟨kn, hkn⟩ : ∃ kn, kn = knownL acc nm.data.toList := ⟨_, rfl⟩
              rw [← hkn] at hlook
              have HKN := Lib.hid hkn
              rw [hwa] at hlook ca1
              clear hr hkn hwa
              cases kn
              · obtain ⟨wb, hput, hseen, hgb⟩ := HAa.out.seen.put nm (by unfold maxLen; have := HNZ.out; omega) (by unfold maxLen; have := HAL.out; have := HJS.out; have := HS.out; omega)
                rw [HWA.out] at hput
                have hrowb := ownA_map HAa.out.row HAa.out.seen hgb
                have hab : wb.heap[w9.heap.size]? = some (.cells #[.int .i64 0, .string nm, .string V] 31 (0, 0)) := heap_but HAA.out hgb (by
                  intro e
                  obtain ⟨D, ⟨es, cl, hmm, _⟩, _⟩ := HAa.out.seen
                  have hx := HAA.out
                  rw [e, hmm] at hx
                  cases hx)
                have htb := HTa.out.but hgb (by omega)
                have hbelb : Below w.heap.size w wb := HAa.out.bel.grown hgb HAa.out.bel.size (fun k e => by cases e; omega)
                have cb0 : wb.cell? ⟨w9.heap.size, 0, none⟩ = some (.int .i64 0) := heap_cell hab 0
                have cb1 : wb.cell? ⟨w9.heap.size, 1, none⟩ = some (.string nm) := heap_cell hab 1
                have cb2 : wb.cell? ⟨w9.heap.size, 2, none⟩ = some (.string V) := heap_cell hab 2
                have hszb : w.heap.size ≤ wb.heap.size := hbelb.size
                have HSEEN := Lib.hid hseen
                have HGB := Lib.hid hgb
                have HROW := Lib.hid hrowb
                have HTB := Lib.hid htb
                have HBB := Lib.hid hbelb
                have hl1 : acc.length + 1 ≤ 1000001 := by have := HAL.out; have := HJS.out; have := HS.out; omega
                obtain ⟨i0, hi, hz0, hz1, hz2⟩ := info_parts info_attr
                clear hseen hgb hrowb htb hbelb hab
                go_wp2_with (at_builtin; refine wpList_append_own _ rfl _ _ 25 rfl w.heap.size 31 i0 (.agg #[.int .i64 0, .string ⟨#[]⟩, .string ⟨#[]⟩]) 3 40 Tryz.underlying25 hi hz0 hz1 hz2 rfl (by decide) _ _ _ rfl (HROW.out.alloc _) ⟨wb.heap.size, 0, none⟩ 1 1 [.int .i64 0, .string nm, .string V] rfl rfl (three_cell _ _ _ _ _) (three_one _ _) (by unfold maxLen; omega) (by omega) (by simp; omega) ?_; intro v' wc hown' hgrow _; have HOWN := Lib.hid hown'; have HGROW := Lib.hid hgrow; clear hown' hgrow)
                go_roundg (s.size - N)
                case measure => have := HGN.out; have := HJJ.out; have := HN1.out; have := HN2.out; have := HJ1S.out; omega
                case rel =>
                  have := HKJ.out; have := HJJ.out; have := HN1.out; have := HAL.out
                  have hb1 : Below wb.heap.size wb (wb.alloc (.cells #[.int .i64 0, .string nm, .string V] 31)) := below_alloc (Below.refl _ _) _
                  have hrow2 := HROW.out.alloc (.cells #[.int .i64 0, .string nm, .string V] 31)
                  refine ⟨acc ++ [(nm.data.toList, V.data.toList)], N, rfl, by omega, HN2.out, by rw [List.length_append]; show acc.length + 1 ≤ N; omega, ?_, at_own hrow2 (HTB.out.below hb1) HGROW.out, ?_, ?_, ?_⟩
                  · rw [← HR.out, addL_no _ HKN.out.symm]
                  · rw [List.length_append, knownL_add _ _ _ HKN.out.symm]
                    exact seen_own hrow2 (HSEEN.out.below hb1) HGROW.out
                  · rw [List.length_append, attrCells_snoc, bl_of, bl_of]
                    exact HOWN.out
                  · exact (below_alloc HBB.out _).grown HGROW.out (by simp; omega) (fun k e => (hrow2.lt k e).1)
              · go_wp2_with fail
                rw [← HWA.out]
                go_roundg (s.size - N)
                case measure => have := HGN.out; have := HJJ.out; have := HN1.out; have := HN2.out; have := HJ1S.out; omega
                case rel =>
                  have := HKJ.out; have := HJJ.out; have := HN1.out; have := HAL.out
                  exact ⟨acc, N, rfl, by omega, HN2.out, by omega, by rw [← HR.out, addL_yes _ HKN.out.symm], HTa.out, HAa.out⟩
end Go.Proofs.YtnfccckodgknjaaGreatDoor
