/-
  A document type declaration that is being read: its cells, and the small methods.
  A document type declaration: its identifiers.
-/
import Derived.Test.YtofiaodpjpjedaaGreatDoorY37
import Derived.Test.YtofiaodpjpjedaaGreatDoorY20
namespace Go.Proofs.YtofiaodpjpjedaaGreatDoor
open Go.RowKit Go.Shelf Go.Lib
set_option maxHeartbeats 4000000
set_option maxRecDepth 100000

structure Dt where
  st : Nat
  q : ByteArray
  name : ByteArray
  hn : Bool
  pub : ByteArray
  hp : Bool
  sys : ByteArray
  hs : Bool
  qk : Bool
def dcells (s : ByteArray) (j : Nat) (d : Dt) : Array Value := #[.string s, .int .i64 j, .int .i64 (d.st : Nat), .string d.q, .int .i64 1, .string d.name, .bool d.hn, .string d.pub, .bool d.hp, .string d.sys, .bool d.hs, .bool d.qk, .slice none 0 0, .bool false, .string ⟨#[]⟩, .int .i32 0]
/-- Block b is the reader d, at j. -/
def DAt (w : World) (b : Nat) (s : ByteArray) (j : Nat) (d : Dt) : Prop := w.heap[b]? = some (.cells (dcells s j d) 92 (0, 0))
theorem DAt.at {w : World} {b : Nat} {s : ByteArray} {j : Nat} {d : Dt} (h : DAt w b s j d) : At w b (dcells s j d) 92 s j := ⟨h, rfl, rfl⟩
theorem DAt.of {w : World} {b : Nat} {s : ByteArray} {j k : Nat} {d : Dt} (h : At w b (mv (dcells s j d) k) 92 s k) : DAt w b s k d := h.blk
theorem DAt.of' {w : World} {b : Nat} {s : ByteArray} {j : Nat} {d : Dt} (h : At w b (dcells s j d) 92 s j) : DAt w b s j d := h.blk
theorem DAt.lt {w : World} {b : Nat} {s : ByteArray} {j : Nat} {d : Dt} (h : DAt w b s j d) : b < w.heap.size := (Array.getElem?_eq_some_iff.1 h).1
theorem DAt.cell {w : World} {b : Nat} {s : ByteArray} {j : Nat} {d : Dt} (h : DAt w b s j d) (o : Nat) : w.cell? ⟨b, o, none⟩ = (dcells s j d)[o]? := heap_cell h o
theorem DAt.frozen {w : World} {b : Nat} {s : ByteArray} {j : Nat} {d : Dt} (h : DAt w b s j d) (o : Nat) : w.frozen? ⟨b, o, none⟩ = false := heap_frozen h o
theorem DAt.below {w w' : World} {b : Nat} {s : ByteArray} {j : Nat} {d : Dt} (h : DAt w b s j d) (hb : Below w.heap.size w w') : DAt w' b s j d := heap_below h hb
theorem DAt.setSt {w : World} {b : Nat} {s : ByteArray} {j : Nat} {d : Dt} (h : DAt w b s j d) (n : Nat) : DAt (w.setCell ⟨b, 2, none⟩ (.int .i64 n)) b s j { d with st := n } := heap_set h 2 _
theorem DAt.setQ {w : World} {b : Nat} {s : ByteArray} {j : Nat} {d : Dt} (h : DAt w b s j d) (v : ByteArray) : DAt (w.setCell ⟨b, 3, none⟩ (.string v)) b s j { d with q := v } := heap_set h 3 _
theorem DAt.setName {w : World} {b : Nat} {s : ByteArray} {j : Nat} {d : Dt} (h : DAt w b s j d) (v : ByteArray) : DAt (w.setCell ⟨b, 5, none⟩ (.string v)) b s j { d with name := v } := heap_set h 5 _
theorem DAt.setHn {w : World} {b : Nat} {s : ByteArray} {j : Nat} {d : Dt} (h : DAt w b s j d) (v : Bool) : DAt (w.setCell ⟨b, 6, none⟩ (.bool v)) b s j { d with hn := v } := heap_set h 6 _
theorem DAt.setPub {w : World} {b : Nat} {s : ByteArray} {j : Nat} {d : Dt} (h : DAt w b s j d) (v : ByteArray) : DAt (w.setCell ⟨b, 7, none⟩ (.string v)) b s j { d with pub := v } := heap_set h 7 _
theorem DAt.setHp {w : World} {b : Nat} {s : ByteArray} {j : Nat} {d : Dt} (h : DAt w b s j d) (v : Bool) : DAt (w.setCell ⟨b, 8, none⟩ (.bool v)) b s j { d with hp := v } := heap_set h 8 _
theorem DAt.setSys {w : World} {b : Nat} {s : ByteArray} {j : Nat} {d : Dt} (h : DAt w b s j d) (v : ByteArray) : DAt (w.setCell ⟨b, 9, none⟩ (.string v)) b s j { d with sys := v } := heap_set h 9 _
theorem DAt.setHs {w : World} {b : Nat} {s : ByteArray} {j : Nat} {d : Dt} (h : DAt w b s j d) (v : Bool) : DAt (w.setCell ⟨b, 10, none⟩ (.bool v)) b s j { d with hs := v } := heap_set h 10 _
theorem DAt.setQk {w : World} {b : Nat} {s : ByteArray} {j : Nat} {d : Dt} (h : DAt w b s j d) (v : Bool) : DAt (w.setCell ⟨b, 11, none⟩ (.bool v)) b s j { d with qk := v } := heap_set h 11 _

theorem DAt.qk_eq {w : World} {b : Nat} {s : ByteArray} {j : Nat} {d : Dt} {x y : Bool} (h : DAt w b s j { d with qk := x }) (e : x = y) : DAt w b s j { d with qk := y } := e ▸ h

theorem dSpaces (b : Nat) (s : ByteArray) (k : Nat) (d : Dt) (hk : k ≤ s.size) (hs : s.size ≤ 1000000000) (w : World) (h : DAt w b s k d) :
    Calls Tryz.prog 72 #[.pointer (some ⟨b, 0, none⟩)] w fun e w' => ∃ (N : Nat) (f : Bool), e = .returned (.bool f) ∧ f = decide (0 < N) ∧ s.data.toList.drop (k + N) = sk (s.data.toList.drop k) ∧ k + N ≤ s.size ∧ DAt w' b s (k + N) d ∧ But b w w' := by
  refine (curSpaces b _ _ s k hk hs w h.at).mono ?_
  rintro e w' ⟨N, h1, h2, rfl, h3, h4⟩
  refine ⟨N, _, rfl, rfl, ?_, h2, DAt.of h3, h4⟩
  unfold sk
  rw [List.drop_drop]
  have e : (qOf fun r => !spB r) = fun b => !spU b := rfl
  rw [e] at h1
  rw [h1]
theorem dUntil (g : Nat) (lb : Array Value) (eg : ∀ args w, (callFunc g args).run Tryz.prog w = .ok (.enter g args) w) (p : Nat → Bool) (H : Bool) (hH : ∀ r, 128 ≤ r → r ≤ 1114111 → p r = H) (q : UInt8 → Bool) (hq : qOf p = q)
    (b : Nat) (s : ByteArray) (k : Nat) (d : Dt) (hk : k ≤ s.size) (hs : s.size ≤ 1000000000) (w : World) (hp : PredGrows Tryz.prog g lb p w) (h : DAt w b s k d) :
    Calls Tryz.prog 64 #[.pointer (some ⟨b, 0, none⟩), .func (.func g) #[] lb] w fun e w' => ∃ (N : Nat) (V : ByteArray), N = runN q (s.data.toList.drop k) ∧ k + N ≤ s.size ∧
      e = .returned (.string V) ∧ V.data.toList = (s.data.toList.drop k).take N ∧ V.size = N ∧ DAt w' b s (k + N) d ∧ But b w w' := by
  subst hq
  refine (curUntil g lb eg p H hH b _ _ s k hk hs w hp h.at).mono ?_
  rintro e w' ⟨N, h1, h2, rfl, h3, h4⟩
  exact ⟨N, _, h1, h2, rfl, ext_take s k N h2, by rw [ByteArray.size_extract]; omega, DAt.of h3, h4⟩
theorem dTook (b : Nat) (s p : ByteArray) (k n : Nat) (d : Dt) (hn : p.size = n) (hk : k ≤ s.size) (hs : s.size ≤ 1000000000) (w : World) (h : DAt w b s k d) :
    Calls Tryz.prog 55 #[.pointer (some ⟨b, 0, none⟩), .string p] w fun e w' =>
      (e = .returned (.bool true) ∧ p.data.toList.isPrefixOf (s.data.toList.drop k) = true ∧ k + n ≤ s.size ∧ DAt w' b s (k + n) d ∧ But b w w') ∨
      (e = .returned (.bool false) ∧ p.data.toList.isPrefixOf (s.data.toList.drop k) = false ∧ DAt w' b s k d ∧ But b w w') := by
  subst hn
  refine (curTook b _ _ s p k hk hs w h.at).mono ?_
  rintro e w' (⟨rfl, h1, h2, h3, h4⟩ | ⟨rfl, h1, h3, h4⟩)
  · exact .inl ⟨rfl, List.isPrefixOf_iff_prefix.2 h1, h2, DAt.of h3, h4⟩
  · exact .inr ⟨rfl, by rw [Bool.eq_false_iff]; exact fun e => h1 (List.isPrefixOf_iff_prefix.1 e), DAt.of' h3, h4⟩
theorem dTake (b : Nat) (s : ByteArray) (k n : Nat) (d : Dt) (hk : k + n ≤ s.size) (hs : s.size ≤ 1000000000) (w : World) (h : DAt w b s k d) :
    Calls Tryz.prog 74 #[.pointer (some ⟨b, 0, none⟩), .int .i64 n] w fun e w' => ∃ V : ByteArray, e = .returned (.string V) ∧ V.data.toList = (s.data.toList.drop k).take n ∧ V.size = n ∧ DAt w' b s (k + n) d ∧ But b w w' := by
  refine (curTake b _ _ s k n hk (by unfold maxLen; omega) w h.at).mono ?_
  rintro e w' ⟨rfl, h1, h2⟩
  exact ⟨_, rfl, ext_take s k n hk, by rw [ByteArray.size_extract]; omega, DAt.of h1, h2⟩
theorem dSees (g : Nat) (eg : ∀ args w, (callFunc g args).run Tryz.prog w = .ok (.enter g args) w) (p : Nat → Bool) (b : Nat) (s : ByteArray) (k : Nat) (d : Dt) (hk : k ≤ s.size) (hp : ∀ w, PredGrows Tryz.prog g #[] p w) (w : World) (h : DAt w b s k d) :
    Calls Tryz.prog 52 #[.pointer (some ⟨b, 0, none⟩), .func (.func g) #[] #[]] w fun e w' => e = .returned (.bool (seesB p (s.data.toList.drop k))) ∧ But b w w' ∧ DAt w' b s k d := by
  refine (seesE g eg p b _ _ s k hk w (hp w) h.at).mono ?_
  rintro e w' ⟨rfl, hb⟩
  exact ⟨rfl, But.of_below hb, h.below hb⟩
theorem dEnded (b : Nat) (s : ByteArray) (k : Nat) (d : Dt) (hk : k ≤ s.size) (r : Bool) (hr : r = decide (k = s.size)) (w : World) (h : DAt w b s k d) :
    Calls Tryz.prog 63 #[.pointer (some ⟨b, 0, none⟩)] w fun e w' => e = .returned (.bool r) ∧ But b w w' ∧ DAt w' b s k d := by
  refine (curEnded b _ _ s k hk w h.at).mono ?_
  rintro e w' ⟨rfl, hb⟩
  exact ⟨by rw [hr], But.of_below hb, h.below hb⟩
theorem dFolded (b : Nat) (s p : ByteArray) (k : Nat) (d : Dt) (hp : lowL p.data.toList = p.data.toList) (hk : k ≤ s.size) (hs : s.size ≤ 1000000000) (w : World) (h : DAt w b s k d) :
    Calls Tryz.prog 151 #[.pointer (some ⟨b, 0, none⟩), .string p] w fun e w' =>
      (e = .returned (.bool true) ∧ k + p.size ≤ s.size ∧ lowL ((s.data.toList.drop k).take p.size) = p.data.toList ∧ DAt w' b s (k + p.size) d ∧ But b w w') ∨
      (e = .returned (.bool false) ∧ lowL ((s.data.toList.drop k).take p.size) ≠ p.data.toList ∧ DAt w' b s k d ∧ But b w w') := by
  refine (curFoldedH foldB (fun a p w ha => equalFold a p (by unfold maxLen; omega) w) b _ _ s p k hk hs w h.at).mono ?_
  have hx : ((s.extract k s.size).extract 0 p.size).data.toList = (s.data.toList.drop k).take p.size := by
    rw [Lib.extract_data, ext_drop]; simp
  have hf : foldB ((s.extract k s.size).extract 0 p.size) p = (lowL ((s.data.toList.drop k).take p.size) == p.data.toList) := by
    unfold foldB
    rw [List.map_congr_left fun b _ => lowU_low' b, List.map_congr_left fun b _ => lowU_low' b, hx]
    show (lowL _ == lowL p.data.toList) = _
    rw [hp]
  rw [hf]
  rintro e w' (⟨rfl, h1, h2, h3, h4⟩ | ⟨rfl, h2, h3, h4⟩)
  · exact .inl ⟨rfl, h1, by simpa using h2, DAt.of h3, h4⟩
  · refine .inr ⟨rfl, ?_, DAt.of' h3, h4⟩
    rcases h2 with h2 | h2
    · intro e
      have := congrArg List.length e
      simp only [lowL, List.length_map, List.length_take, List.length_drop, size_list] at this
      omega
    · simpa using h2

theorem dFail (b : Nat) (s : ByteArray) (j : Nat) (d : Dt) (w : World) (h : DAt w b s j d) :
    Calls Tryz.prog 152 #[.pointer (some ⟨b, 0, none⟩)] w fun e w' => e = .returned (.tuple #[]) ∧ DAt w' b s j { d with st := 13, qk := true } ∧ But b w w' := by
  have c2 : w.cell? ⟨b, 2, none⟩ = some (.int .i64 (d.st : Nat)) := h.cell 2
  have c11 : w.cell? ⟨b, 11, none⟩ = some (.bool d.qk) := h.cell 11
  have f2 := h.frozen 2
  have f11 := h.frozen 11
  have H := Lib.hid h
  clear h
  go_enter Tryz.func152, Tryz.ntmps152
  go_wp2_with fail
  go_end0
  exact ⟨rfl, (H.out.setSt 13).setQk true, (But.set _ _ _ _).trans (But.set _ _ _ _)⟩

def incB (st : Nat) : Bool := decide (st ≤ 1) || (decide (4 ≤ st) && decide (st ≤ 6)) || (decide (9 ≤ st) && decide (st ≤ 11))
theorem dIncomplete (b : Nat) (s : ByteArray) (j : Nat) (d : Dt) (hst : d.st ≤ 13) (w : World) (h : DAt w b s j d) :
    Calls Tryz.prog 130 #[.pointer (some ⟨b, 0, none⟩)] w fun e w' => e = .returned (.bool (incB d.st)) ∧ w' = w := by
  have c2 : w.cell? ⟨b, 2, none⟩ = some (.int .i64 (d.st : Nat)) := h.cell 2
  clear h
  obtain ⟨st, hs⟩ : ∃ st, st = d.st := ⟨_, rfl⟩
  rw [← hs] at c2 hst ⊢
  clear hs
  have hcase : st = 0 ∨ st = 1 ∨ st = 2 ∨ st = 3 ∨ st = 4 ∨ st = 5 ∨ st = 6 ∨ st = 7 ∨ st = 8 ∨ st = 9 ∨ st = 10 ∨ st = 11 ∨ st = 12 ∨ st = 13 := by omega
  rcases hcase with rfl | rfl | rfl | rfl | rfl | rfl | rfl | rfl | rfl | rfl | rfl | rfl | rfl | rfl
  all_goals
    go_enter Tryz.func130, Tryz.ntmps130
    go_wp2_with fail
    go_ret
    exact ⟨rfl, rfl⟩

theorem dFinished (b : Nat) (s : ByteArray) (j : Nat) (d : Dt) (hst : d.st ≤ 13) (hj : j ≤ s.size) (hs : s.size ≤ 10000000) (w : World) (h : DAt w b s j d) :
    Calls Tryz.prog 94 #[.pointer (some ⟨b, 0, none⟩)] w fun e w' =>
      (e = .returned (.bool true) ∧ j = s.size ∧ DAt w' b s j { d with qk := d.qk || decide (d.st ≠ 13) } ∧ But b w w') ∨
      (e = .returned (.bool true) ∧ [62].isPrefixOf (s.data.toList.drop j) = true ∧ j + 1 ≤ s.size ∧ DAt w' b s (j + 1) { d with qk := d.qk || incB d.st } ∧ But b w w') ∨
      (e = .returned (.bool false) ∧ j < s.size ∧ [62].isPrefixOf (s.data.toList.drop j) = false ∧ DAt w' b s j d ∧ But b w w') := by
  have HE := Lib.hid (dEnded b s j d hj _ rfl w h)
  have HS := Lib.hid hs
  have HJ := Lib.hid hj
  have HST := Lib.hid hst
  clear hs hst hj h
  by_cases hend : j = s.size
  · rw [decide_eq_true hend] at HE
    have HEND := Lib.hid hend
    clear hend
    obtain ⟨d0, hd0⟩ : ∃ d0, d0 = d := ⟨_, rfl⟩
    cases hqk : d.qk
    · by_cases h13 : d.st = 13
      · have hx : ((d.st : Int) != 13) = false := by rw [h13]; rfl
        have H13 := Lib.hid h13
        have HQK := Lib.hid hqk
        clear h13 hqk
        go_enter Tryz.func94, Tryz.ntmps94
        go_wp2_with fail
        refine HE.out.mono ?_
        rintro e w2 ⟨rfl, hb2, h2⟩
        have c2 : w2.cell? ⟨b, 2, none⟩ = some (.int .i64 (d.st : Nat)) := h2.cell 2
        have c11 : w2.cell? ⟨b, 11, none⟩ = some (.bool false) := by have := h2.cell 11; rw [this]; show some (Value.bool d.qk) = _; rw [HQK.out]
        have f11 := h2.frozen 11
        have H2 := Lib.hid h2
        clear h2
        go_wp2_with fail
        go_ret
        exact .inl ⟨rfl, HEND.out, (H2.out.setQk false).qk_eq (by simp [H13.out]), hb2.trans (But.set _ _ _ _)⟩
      · have hx : ((d.st : Int) != 13) = true := by rw [bne_iff_ne]; omega
        have H13 := Lib.hid h13
        have HQK := Lib.hid hqk
        clear h13 hqk
        go_enter Tryz.func94, Tryz.ntmps94
        go_wp2_with fail
        refine HE.out.mono ?_
        rintro e w2 ⟨rfl, hb2, h2⟩
        have c2 : w2.cell? ⟨b, 2, none⟩ = some (.int .i64 (d.st : Nat)) := h2.cell 2
        have c11 : w2.cell? ⟨b, 11, none⟩ = some (.bool false) := by have := h2.cell 11; rw [this]; show some (Value.bool d.qk) = _; rw [HQK.out]
        have f11 := h2.frozen 11
        have H2 := Lib.hid h2
        clear h2
        go_wp2_with fail
        go_ret
        exact .inl ⟨rfl, HEND.out, (H2.out.setQk true).qk_eq (by simp [H13.out]), hb2.trans (But.set _ _ _ _)⟩
    · have HQK := Lib.hid hqk
      clear hqk
      go_enter Tryz.func94, Tryz.ntmps94
      go_wp2_with fail
      refine HE.out.mono ?_
      rintro e w2 ⟨rfl, hb2, h2⟩
      have c2 : w2.cell? ⟨b, 2, none⟩ = some (.int .i64 (d.st : Nat)) := h2.cell 2
      have c11 : w2.cell? ⟨b, 11, none⟩ = some (.bool true) := by have := h2.cell 11; rw [this]; show some (Value.bool d.qk) = _; rw [HQK.out]
      have f11 := h2.frozen 11
      have H2 := Lib.hid h2
      clear h2
      go_wp2_with fail
      go_ret
      exact .inl ⟨rfl, HEND.out, (H2.out.setQk true).qk_eq (by simp), hb2.trans (But.set _ _ _ _)⟩
  · rw [decide_eq_false hend] at HE
    have HEND := Lib.hid (show j < s.size by have := HJ.out; omega)
    clear hend
    go_enter Tryz.func94, Tryz.ntmps94
    go_wp2_with fail
    refine HE.out.mono ?_
    rintro e w2 ⟨rfl, hb2, h2⟩
    have HT := Lib.hid (dTook b s ⟨#[62]⟩ j 1 d rfl HJ.out (by have := HS.out; omega) w2 h2)
    clear h2
    go_wp2_with fail
    refine HT.out.mono ?_
    rintro e w3 (⟨rfl, hp, hj1, h3, hb3⟩ | ⟨rfl, hp, h3, hb3⟩)
    · have HP := Lib.hid hp
      have HJ1 := Lib.hid hj1
      have HI := Lib.hid (dIncomplete b s (j + 1) d HST.out w3 h3)
      have c11 : w3.cell? ⟨b, 11, none⟩ = some (.bool d.qk) := h3.cell 11
      have f11 := h3.frozen 11
      have H3 := Lib.hid h3
      obtain ⟨i, hi⟩ : ∃ i, i = incB d.st := ⟨_, rfl⟩
      rw [← hi] at HI
      have HIN := Lib.hid hi
      clear hp hj1 h3 hi
      obtain ⟨qk, hqk⟩ : ∃ qk, qk = d.qk := ⟨_, rfl⟩
      rw [← hqk] at c11
      have HQK := Lib.hid hqk
      clear hqk
      cases qk
      · go_wp2_with fail
        refine HI.out.mono ?_
        rintro e w4 ⟨rfl, rfl⟩
        go_wp2_with fail
        go_ret
        refine .inr (.inl ⟨rfl, HP.out, HJ1.out, ?_, (hb2.trans hb3).trans (But.set _ _ _ _)⟩)
        rw [← HQK.out, Bool.false_or, ← HIN.out]
        exact H3.out.setQk i
      · go_wp2_with fail
        go_ret
        refine .inr (.inl ⟨rfl, HP.out, HJ1.out, ?_, (hb2.trans hb3).trans (But.set _ _ _ _)⟩)
        rw [← HQK.out, Bool.true_or]
        exact H3.out.setQk true
    · have HP := Lib.hid hp
      have H3 := Lib.hid h3
      clear hp h3
      go_wp2_with fail
      go_ret
      exact .inr (.inr ⟨rfl, HEND.out, HP.out, H3.out, hb2.trans hb3⟩)

theorem dKeyword (b : Nat) (s : ByteArray) (j : Nat) (d : Dt) (hj : j ≤ s.size) (hs : s.size ≤ 10000000) (w : World) (h : DAt w b s j d) :
    Calls Tryz.prog 131 #[.pointer (some ⟨b, 0, none⟩)] w fun e w' => e = .returned (.tuple #[]) ∧ But b w w' ∧ ∃ N, s.data.toList.drop (j + N) = sk (s.data.toList.drop j) ∧
      ((0 < N ∧ j + N ≤ s.size ∧ DAt w' b s (j + N) d) ∨
       (N = 0 ∧ j + 6 ≤ s.size ∧ lowL ((s.data.toList.drop j).take 6) = sPublic ∧ DAt w' b s (j + 6) { d with st := 4 }) ∨
       (N = 0 ∧ j + 6 ≤ s.size ∧ lowL ((s.data.toList.drop j).take 6) ≠ sPublic ∧ lowL ((s.data.toList.drop j).take 6) = sSystem ∧ DAt w' b s (j + 6) { d with st := 9 }) ∨
       (N = 0 ∧ lowL ((s.data.toList.drop j).take 6) ≠ sPublic ∧ lowL ((s.data.toList.drop j).take 6) ≠ sSystem ∧ DAt w' b s j { d with st := 13, qk := true })) := by
  have HS := Lib.hid hs
  have HJ := Lib.hid hj
  have HSp := Lib.hid (dSpaces b s j d hj (by omega) w h)
  clear hs hj h
  go_enter Tryz.func131, Tryz.ntmps131
  go_wp2_with fail
  refine HSp.out.mono ?_
  rintro e w2 ⟨N, f, rfl, hf, hsk, hjN, h2, hb2⟩
  have HSK := Lib.hid hsk
  have HJN := Lib.hid hjN
  by_cases hN : 0 < N
  · rw [decide_eq_true hN] at hf
    subst hf
    have HN := Lib.hid hN
    have H2 := Lib.hid h2
    clear hsk hjN hN h2
    go_wp2_with fail
    go_end0
    exact ⟨rfl, hb2, N, HSK.out, .inl ⟨HN.out, HJN.out, H2.out⟩⟩
  · rw [decide_eq_false hN] at hf
    subst hf
    have hN0 : N = 0 := by omega
    subst hN0
    rw [Nat.add_zero] at h2
    have HF := Lib.hid (dFolded b s ⟨#[112, 117, 98, 108, 105, 99]⟩ j d (by decide) HJ.out (by have := HS.out; omega) w2 h2)
    clear hsk hjN hN h2
    go_wp2_with fail
    refine HF.out.mono ?_
    rintro e w3 (⟨rfl, h61, hl, h3, hb3⟩ | ⟨rfl, hl, h3, hb3⟩)
    · have HL := Lib.hid hl
      have H61 := Lib.hid h61
      have c2 : w3.cell? ⟨b, 2, none⟩ = some (.int .i64 (d.st : Nat)) := h3.cell 2
      have f2 := h3.frozen 2
      have H3 := Lib.hid h3
      clear hl h61 h3
      go_wp2_with fail
      go_end0
      exact ⟨rfl, (hb2.trans hb3).trans (But.set _ _ _ _), 0, HSK.out, .inr (.inl ⟨rfl, H61.out, HL.out, H3.out.setSt 4⟩)⟩
    · have HL := Lib.hid hl
      have HF2 := Lib.hid (dFolded b s ⟨#[115, 121, 115, 116, 101, 109]⟩ j d (by decide) HJ.out (by have := HS.out; omega) w3 h3)
      clear hl h3
      go_wp2_with fail
      refine HF2.out.mono ?_
      rintro e w4 (⟨rfl, h61, hl, h4, hb4⟩ | ⟨rfl, hl, h4, hb4⟩)
      · have HL2 := Lib.hid hl
        have H61 := Lib.hid h61
        have c2 : w4.cell? ⟨b, 2, none⟩ = some (.int .i64 (d.st : Nat)) := h4.cell 2
        have f2 := h4.frozen 2
        have H4 := Lib.hid h4
        clear hl h61 h4
        go_wp2_with fail
        go_end0
        exact ⟨rfl, ((hb2.trans hb3).trans hb4).trans (But.set _ _ _ _), 0, HSK.out, .inr (.inr (.inl ⟨rfl, H61.out, HL.out, HL2.out, H4.out.setSt 9⟩))⟩
      · have HL2 := Lib.hid hl
        have HFa := Lib.hid (dFail b s j d w4 h4)
        clear hl h4
        go_wp2_with fail
        refine HFa.out.mono ?_
        rintro e w5 ⟨rfl, h5, hb5⟩
        have H5 := Lib.hid h5
        clear h5
        go_wp2_with fail
        go_end0
        exact ⟨rfl, ((hb2.trans hb3).trans hb4).trans hb5, 0, HSK.out, .inr (.inr (.inr ⟨rfl, HL.out, HL2.out, H5.out⟩))⟩

/-- What openIdentifier does: inside: the state; sy: the system identifier's. -/
def opened (d : Dt) (sy : Bool) (Q : ByteArray) : Dt := if sy then { d with q := Q, st := 11, hs := true } else { d with q := Q, st := 6, hp := true }
theorem dOpen (b : Nat) (s : ByteArray) (j : Nat) (d : Dt) (sy : Bool) (hj : j ≤ s.size) (hs : s.size ≤ 10000000) (w : World) (h : DAt w b s j d) :
    Calls Tryz.prog 132 #[.pointer (some ⟨b, 0, none⟩), .int .i64 (if sy then 11 else 6), .pointer (some ⟨b, if sy then 10 else 8, none⟩)] w fun e w' => e = .returned (.tuple #[]) ∧ But b w w' ∧ ∃ N, s.data.toList.drop (j + N) = sk (s.data.toList.drop j) ∧
      ((0 < N ∧ j + N ≤ s.size ∧ DAt w' b s (j + N) d) ∨
       (N = 0 ∧ j + 1 ≤ s.size ∧ ∃ (Q : ByteArray) (c : UInt8), Q.data.toList = [c] ∧ quU c = true ∧ s.data.toList.drop j = c :: s.data.toList.drop (j + 1) ∧ DAt w' b s (j + 1) (opened d sy Q)) ∨
       (N = 0 ∧ seesB (fun r => quB r) (s.data.toList.drop j) = false ∧ DAt w' b s j { d with st := 13, qk := true })) := by
  have HS := Lib.hid hs
  have HJ := Lib.hid hj
  have HSp := Lib.hid (dSpaces b s j d hj (by omega) w h)
  clear hs hj h
  cases sy
  all_goals
    simp only [Bool.false_eq_true, if_false, if_true]
    go_enter Tryz.func132, Tryz.ntmps132
    go_wp2_with fail
    refine HSp.out.mono ?_
    rintro e w2 ⟨N, f, rfl, hf, hsk, hjN, h2, hb2⟩
    have HSK := Lib.hid hsk
    have HJN := Lib.hid hjN
    by_cases hN : 0 < N
    · rw [decide_eq_true hN] at hf
      subst hf
      have HN := Lib.hid hN
      have H2 := Lib.hid h2
      clear hsk hjN hN h2
      go_wp2_with fail
      go_end0
      exact ⟨rfl, hb2, N, HSK.out, .inl ⟨HN.out, HJN.out, H2.out⟩⟩
    · rw [decide_eq_false hN] at hf
      subst hf
      have hN0 : N = 0 := by omega
      subst hN0
      rw [Nat.add_zero] at h2
      have HSe := Lib.hid (dSees 73 (fun args w => enters_of Tryz.func73 (by kernel_rfl) rfl args w) (fun r => quB r) b s j d HJ.out grows_quote w2 h2)
      obtain ⟨q, hq⟩ : ∃ q, q = seesB (fun r => quB r) (s.data.toList.drop j) := ⟨_, rfl⟩
      rw [← hq] at HSe
      have HQ := Lib.hid hq
      clear hsk hjN hN h2 hq
      cases q
      · go_wp2_with fail
        refine HSe.out.mono ?_
        rintro e w3 ⟨rfl, hb3, h3⟩
        have HFa := Lib.hid (dFail b s j d w3 h3)
        clear h3
        go_wp2_with fail
        refine HFa.out.mono ?_
        rintro e w5 ⟨rfl, h5, hb5⟩
        have H5 := Lib.hid h5
        clear h5
        go_wp2_with fail
        go_end0
        exact ⟨rfl, (hb2.trans hb3).trans hb5, 0, HSK.out, .inr (.inr ⟨rfl, HQ.out.symm, H5.out⟩)⟩
      · have hj1 : j + 1 ≤ s.size := by
          have hq := HQ.out
          have := HJ.out
          rcases Nat.lt_or_ge j s.size with hl | hl
          · exact hl
          · rw [drop_end s _ hl] at hq; cases hq
        have HJ1 := Lib.hid hj1
        clear hj1
        have hd := drop_byte s j HJ1.out
        have HD := Lib.hid hd
        clear hd
        go_wp2_with fail
        refine HSe.out.mono ?_
        rintro e w3 ⟨rfl, hb3, h3⟩
        have HTk := Lib.hid (dTake b s j 1 d HJ1.out (by have := HS.out; omega) w3 h3)
        clear h3
        go_wp2_with fail
        refine HTk.out.mono ?_
        rintro e w4 ⟨Q, rfl, hQ, _, h4, hb4⟩
        have hQ1 : Q.data.toList = [s[j]'HJ1.out] := by rw [hQ, HD.out]; rfl
        have hqc : quU (s[j]'HJ1.out) = true := by
          have := HQ.out
          rw [HD.out] at this
          rw [← q_qu]
          exact this.symm
        have HQ1 := Lib.hid hQ1
        have HQC := Lib.hid hqc
        have c2 : w4.cell? ⟨b, 2, none⟩ = some (.int .i64 (d.st : Nat)) := h4.cell 2
        have c3 : w4.cell? ⟨b, 3, none⟩ = some (.string d.q) := h4.cell 3
        have c8 : w4.cell? ⟨b, 8, none⟩ = some (.bool d.hp) := h4.cell 8
        have c10 : w4.cell? ⟨b, 10, none⟩ = some (.bool d.hs) := h4.cell 10
        have f2 := h4.frozen 2
        have f3 := h4.frozen 3
        have f8 := h4.frozen 8
        have f10 := h4.frozen 10
        have H4 := Lib.hid h4
        clear hQ h4 hQ1 hqc
        go_wp2_with fail
        go_end0
        first
          | exact ⟨rfl, ((((hb2.trans hb3).trans hb4).trans (But.set _ _ _ _)).trans (But.set _ _ _ _)).trans (But.set _ _ _ _), 0, HSK.out, .inr (.inl ⟨rfl, HJ1.out, Q, _, HQ1.out, HQC.out, HD.out, ((H4.out.setQ Q).setSt 6).setHp true⟩)⟩
          | exact ⟨rfl, ((((hb2.trans hb3).trans hb4).trans (But.set _ _ _ _)).trans (But.set _ _ _ _)).trans (But.set _ _ _ _), 0, HSK.out, .inr (.inl ⟨rfl, HJ1.out, Q, _, HQ1.out, HQC.out, HD.out, ((H4.out.setQ Q).setSt 11).setHs true⟩)⟩
end Go.Proofs.YtofiaodpjpjedaaGreatDoor

namespace Go.Proofs.YtofiaodpjpjedaaGreatDoor
open Go.RowKit Go.Shelf Go.Lib
set_option maxHeartbeats 4000000
set_option maxRecDepth 100000

theorem rid1 (b xb : Nat) (Q : ByteArray) (c : UInt8) (hQ : Q.data.toList = [c]) (hc : c.toNat < 128) (x : Nat) (w : World) (hx : w.cell? ⟨xb, 0, none⟩ = some (.pointer (some ⟨b, 0, none⟩))) (hcell : w.cell? ⟨b, 3, none⟩ = some (.string Q)) :
    Calls Tryz.prog 153 #[.int .i32 x, .pointer (some ⟨xb, 0, none⟩)] w fun e w' => e = .returned (.bool (decide ((x : Int) = 62) || decide ((x : Int) = c.toNat))) ∧ Below w.heap.size w w' := by
  have he := enc_one x c hc
  rw [← hQ] at he
  obtain ⟨r, hr⟩ : ∃ r, r = decide ((x : Int) = c.toNat) := ⟨_, rfl⟩
  rw [← hr] at he ⊢
  have HE := Lib.hid he
  by_cases h62 : (x : Int) = 62
  · rw [decide_eq_true h62, Bool.true_or]
    have hz : ((x : Int) == 62) = true := by rw [beq_iff_eq]; exact h62
    clear he hr hQ hc h62
    go_enter Tryz.func153, Tryz.ntmps153
    go_wp2_with fail
    go_ret
    exact ⟨rfl, Below.refl _ _⟩
  · rw [decide_eq_false h62, Bool.false_or]
    have hz : ((x : Int) == 62) = false := by rw [beq_eq_false_iff_ne]; exact h62
    clear he hr hQ hc h62
    go_enter Tryz.func153, Tryz.ntmps153
    go_wp2_with fail
    go_ret
    exact ⟨ret_bool (by rw [ByteArray.toList_eq, ByteArray.toList_eq]; exact HE.out), Below.refl _ _⟩

theorem q_id (c : UInt8) : (qOf fun r => decide ((r : Int) = 62) || decide ((r : Int) = c.toNat)) = fun b => b == 62 || b == c := by
  funext b
  have h1 : decide ((b.toNat : Int) = 62) = (b == 62) := by rw [Bool.eq_iff_iff]; simp [← UInt8.toNat_inj]; omega
  have h2 : decide ((b.toNat : Int) = c.toNat) = (b == c) := by rw [Bool.eq_iff_iff]; simp [← UInt8.toNat_inj]; omega
  show (decide ((b.toNat : Int) = 62) || decide ((b.toNat : Int) = c.toNat)) = _
  rw [h1, h2]

/-- The identifier set. -/
def named2 (d : Dt) (sy : Bool) (V : ByteArray) : Dt := if sy then { d with sys := V } else { d with pub := V }
theorem dRead (b : Nat) (s : ByteArray) (j : Nat) (d : Dt) (sy : Bool) (c : UInt8) (hQ : d.q.data.toList = [c]) (hc : quU c = true) (hj : j ≤ s.size) (hs : s.size ≤ 1000000) (m : Int) (w : World) (hm : w.cell? ⟨1, 0, none⟩ = some (.int .i64 m)) (h : DAt w b s j d) :
    Calls Tryz.prog 133 #[.pointer (some ⟨b, 0, none⟩), .int .i64 (if sy then 12 else 7), .pointer (some ⟨b, if sy then 9 else 7, none⟩)] w fun e w' => e = .returned (.tuple #[]) ∧ But b w w' ∧ ∃ (V : ByteArray), V.data.toList = nulL ((s.data.toList.drop j).take (idN c (s.data.toList.drop j))) ∧
      (([c].isPrefixOf (s.data.toList.drop (j + idN c (s.data.toList.drop j))) = true ∧ j + idN c (s.data.toList.drop j) + 1 ≤ s.size ∧ DAt w' b s (j + idN c (s.data.toList.drop j) + 1) { named2 d sy V with st := if sy then 12 else 7 }) ∨
       ([c].isPrefixOf (s.data.toList.drop (j + idN c (s.data.toList.drop j))) = false ∧ j + idN c (s.data.toList.drop j) ≤ s.size ∧ DAt w' b s (j + idN c (s.data.toList.drop j)) (named2 d sy V))) := by
  have HS := Lib.hid hs
  have HJ := Lib.hid hj
  have HM := Lib.hid hm
  have H0 := Lib.hid h
  have hbl := h.lt
  have hc128 : c.toNat < 128 := by
    unfold quU at hc
    rw [Bool.or_eq_true, beq_iff_eq, beq_iff_eq] at hc
    rcases hc with rfl | rfl <;> decide
  obtain ⟨n0, hn0⟩ : ∃ n0, n0 = idN c (s.data.toList.drop j) := ⟨_, rfl⟩
  rw [← hn0]
  have HN0 := Lib.hid hn0
  have hq1 : Boxed (w.alloc (.cells #[.pointer (some ⟨b, 0, none⟩)] 122)) w.heap.size 122 (.pointer (some ⟨b, 0, none⟩)) := Boxed.new _ _ _
  have hb1 : Below w.heap.size w (w.alloc (.cells #[.pointer (some ⟨b, 0, none⟩)] 122)) := below_alloc (Below.refl _ _) _
  obtain ⟨w1, hw1⟩ : ∃ w1, w1 = w.alloc (.cells #[.pointer (some ⟨b, 0, none⟩)] 122) := ⟨_, rfl⟩
  have HW1 := Lib.hid hw1
  rw [← hw1] at hq1 hb1
  have h1 := h.below hb1
  have hpg : PredGrows Tryz.prog 153 #[.pointer (some ⟨w.heap.size, 0, none⟩)] (fun r => decide ((r : Int) = 62) || decide ((r : Int) = c.toNat)) w1 :=
    fun W x _ hW => rid1 b w.heap.size d.q c hQ hc128 x W (boxed_below hq1 hW).cell ((h1.below hW).cell 3)
  have HU := Lib.hid (dUntil 153 #[.pointer (some ⟨w.heap.size, 0, none⟩)] (fun args w => enters_of Tryz.func153 (by kernel_rfl) rfl args w) (fun r => decide ((r : Int) = 62) || decide ((r : Int) = c.toNat)) false
    (fun r h _ => by rw [decide_eq_false (by omega), decide_eq_false (by omega)]; rfl) _ (q_id c) b s j d hj (by omega) w1 hpg h1)
  have x1 := hq1.cell
  have HQ1 := Lib.hid hq1
  have HC := Lib.hid hc
  have HQ := Lib.hid hQ
  have hne : w.heap.size ≠ b := by omega
  have hml := fun W (hb : But b w W) => ml_but HM.out H0.out.at hb
  have HML := Lib.hid hml
  clear hs hj hm h hc hn0 hw1 hq1 hQ hpg h1 hc128 hml
  cases sy
  · simp only [Bool.false_eq_true, if_false]
    go_enter Tryz.func133, Tryz.ntmps133
    go_wp2_with fail
    rw [← HW1.out]
    refine HU.out.mono ?_
    rintro e w2 ⟨N, V, hN, hjN, rfl, hV, hVz, h2, hb2⟩
    have hNn : N = n0 := by rw [hN, HN0.out]; rfl
    subst hNn
    have hbb : But b w w2 := (But.of_below hb1).trans hb2
    have HKe := Lib.hid (keptE m V (by have := HS.out; omega) w2 (HML.out w2 hbb))
    have HJN := Lib.hid hjN
    have HV := Lib.hid hV
    have H2 := Lib.hid h2
    have x2 := (boxed_but HQ1.out hb2 hne).cell
    have hx2 := boxed_but HQ1.out hb2 hne
    have HX2 := Lib.hid hx2
    clear hN hjN hV hVz h2 hb2 hx2
    go_wp2_with fail
    refine HKe.out.mono ?_
    rintro e w3 ⟨V3, rfl, hV3, _, hb3⟩
    have h3 := H2.out.below hb3
    have hx3 := boxed_below HX2.out hb3
    have x3 := hx3.cell
    have HX3 := Lib.hid hx3
    have HV3 := Lib.hid hV3
    have c7 : w3.cell? ⟨b, 7, none⟩ = some (.string d.pub) := h3.cell 7
    have c9 : w3.cell? ⟨b, 9, none⟩ = some (.string d.sys) := h3.cell 9
    have f7 := h3.frozen 7
    have f9 := h3.frozen 9
    have c3 : w3.cell? ⟨b, 3, none⟩ = some (.string d.q) := h3.cell 3
    have H3 := Lib.hid h3
    clear hV3 h3 hx3
    go_wp2_with fail
    obtain ⟨w4, hw4⟩ : ∃ w4, w4 = w3.setCell ⟨b, 7, none⟩ (.string V3) := ⟨_, rfl⟩
    rw [← hw4]
    have h4 : DAt w4 b s (j + N) (named2 d false V3) := by rw [hw4]; exact H3.out.setPub V3
    have hx4 : Boxed w4 w.heap.size 122 (.pointer (some ⟨b, 0, none⟩)) := by rw [hw4]; exact boxed_but HX3.out (But.set _ b _ _) hne
    have hbb4 : But b w w4 := by rw [hw4]; exact (hbb.trans (But.of_below hb3)).trans (But.set _ _ _ _)
    have x4 := hx4.cell
    have d3 : w4.cell? ⟨b, 3, none⟩ = some (.string d.q) := h4.cell 3
    have hqs : d.q.size = 1 := by rw [← size_list, HQ.out]; rfl
    by_cases hp : [c].isPrefixOf (s.data.toList.drop (j + N)) = true
    · have HT : Hid (∀ nn, Calls Tryz.prog 55 #[.pointer (some ⟨b, 0, none⟩), .string d.q] (w4.drewN nn) fun e w' => e = .returned (.bool true) ∧ j + N + 1 ≤ s.size ∧ DAt w' b s (j + N + 1) (named2 d false V3) ∧ But b w w' ∧ Boxed w' w.heap.size 122 (.pointer (some ⟨b, 0, none⟩))) := Lib.hid (by
        intro nn
        have hb0 : Below w4.heap.size w4 (w4.drewN nn) := _root_.Go.below_drewN (Below.refl _ _) nn
        refine (dTook b s d.q (j + N) 1 _ hqs HJN.out (by have := HS.out; omega) (w4.drewN nn) (h4.below hb0)).mono ?_
        rintro e w' (⟨rfl, _, g1, g2, g3⟩ | ⟨rfl, g1, _⟩)
        · exact ⟨rfl, g1, g2, (hbb4.trans (But.of_below hb0)).trans g3, boxed_but (boxed_below hx4 hb0) g3 hne⟩
        · rw [HQ.out, hp] at g1; cases g1)
      have HP := Lib.hid hp
      clear hp hw4 h4 hx4 c3 c7 c9 f7 f9 hqs
      go_region_with (go_at_call 55; refine (HT.out 1).mono ?_; rintro e w5 ⟨rfl, hj1, h5, hb5, hx5⟩; have x5 := hx5.cell; have g2 : w5.cell? ⟨b, 2, none⟩ = some (.int .i64 (d.st : Nat)) := h5.cell 2; have e2 := h5.frozen 2; have H5 := Lib.hid h5; have HJ1 := Lib.hid hj1; clear hj1 h5 hx5)
      all_goals
        go_wp2_with fail
        go_end0
        exact ⟨rfl, hb5.trans (But.set _ _ _ _), V3, by rw [HV3.out, HV.out], .inl ⟨HP.out, HJ1.out, H5.out.setSt 7⟩⟩
    · rw [Bool.not_eq_true] at hp
      have HT : Hid (∀ nn, Calls Tryz.prog 55 #[.pointer (some ⟨b, 0, none⟩), .string d.q] (w4.drewN nn) fun e w' => e = .returned (.bool false) ∧ DAt w' b s (j + N) (named2 d false V3) ∧ But b w w') := Lib.hid (by
        intro nn
        have hb0 : Below w4.heap.size w4 (w4.drewN nn) := _root_.Go.below_drewN (Below.refl _ _) nn
        refine (dTook b s d.q (j + N) 1 _ hqs HJN.out (by have := HS.out; omega) (w4.drewN nn) (h4.below hb0)).mono ?_
        rintro e w' (⟨rfl, g1, _⟩ | ⟨rfl, _, g2, g3⟩)
        · rw [HQ.out, hp] at g1; cases g1
        · exact ⟨rfl, g2, (hbb4.trans (But.of_below hb0)).trans g3⟩)
      have HP := Lib.hid hp
      clear hp hw4 h4 hx4 c3 c7 c9 f7 f9 hqs
      go_region_with (go_at_call 55; refine (HT.out 1).mono ?_; rintro e w5 ⟨rfl, h5, hb5⟩; have H5 := Lib.hid h5; clear h5)
      all_goals
        go_wp2_with fail
        go_end0
        exact ⟨rfl, hb5, V3, by rw [HV3.out, HV.out], .inr ⟨HP.out, HJN.out, H5.out⟩⟩
  · simp only [if_true]
    go_enter Tryz.func133, Tryz.ntmps133
    go_wp2_with fail
    rw [← HW1.out]
    refine HU.out.mono ?_
    rintro e w2 ⟨N, V, hN, hjN, rfl, hV, hVz, h2, hb2⟩
    have hNn : N = n0 := by rw [hN, HN0.out]; rfl
    subst hNn
    have hbb : But b w w2 := (But.of_below hb1).trans hb2
    have HKe := Lib.hid (keptE m V (by have := HS.out; omega) w2 (HML.out w2 hbb))
    have HJN := Lib.hid hjN
    have HV := Lib.hid hV
    have H2 := Lib.hid h2
    have x2 := (boxed_but HQ1.out hb2 hne).cell
    have hx2 := boxed_but HQ1.out hb2 hne
    have HX2 := Lib.hid hx2
    clear hN hjN hV hVz h2 hb2 hx2
    go_wp2_with fail
    refine HKe.out.mono ?_
    rintro e w3 ⟨V3, rfl, hV3, _, hb3⟩
    have h3 := H2.out.below hb3
    have hx3 := boxed_below HX2.out hb3
    have x3 := hx3.cell
    have HX3 := Lib.hid hx3
    have HV3 := Lib.hid hV3
    have c7 : w3.cell? ⟨b, 7, none⟩ = some (.string d.pub) := h3.cell 7
    have c9 : w3.cell? ⟨b, 9, none⟩ = some (.string d.sys) := h3.cell 9
    have f7 := h3.frozen 7
    have f9 := h3.frozen 9
    have c3 : w3.cell? ⟨b, 3, none⟩ = some (.string d.q) := h3.cell 3
    have H3 := Lib.hid h3
    clear hV3 h3 hx3
    go_wp2_with fail
    obtain ⟨w4, hw4⟩ : ∃ w4, w4 = w3.setCell ⟨b, 9, none⟩ (.string V3) := ⟨_, rfl⟩
    rw [← hw4]
    have h4 : DAt w4 b s (j + N) (named2 d true V3) := by rw [hw4]; exact H3.out.setSys V3
    have hx4 : Boxed w4 w.heap.size 122 (.pointer (some ⟨b, 0, none⟩)) := by rw [hw4]; exact boxed_but HX3.out (But.set _ b _ _) hne
    have hbb4 : But b w w4 := by rw [hw4]; exact (hbb.trans (But.of_below hb3)).trans (But.set _ _ _ _)
    have x4 := hx4.cell
    have d3 : w4.cell? ⟨b, 3, none⟩ = some (.string d.q) := h4.cell 3
    have hqs : d.q.size = 1 := by rw [← size_list, HQ.out]; rfl
    by_cases hp : [c].isPrefixOf (s.data.toList.drop (j + N)) = true
    · have HT : Hid (∀ nn, Calls Tryz.prog 55 #[.pointer (some ⟨b, 0, none⟩), .string d.q] (w4.drewN nn) fun e w' => e = .returned (.bool true) ∧ j + N + 1 ≤ s.size ∧ DAt w' b s (j + N + 1) (named2 d true V3) ∧ But b w w' ∧ Boxed w' w.heap.size 122 (.pointer (some ⟨b, 0, none⟩))) := Lib.hid (by
        intro nn
        have hb0 : Below w4.heap.size w4 (w4.drewN nn) := _root_.Go.below_drewN (Below.refl _ _) nn
        refine (dTook b s d.q (j + N) 1 _ hqs HJN.out (by have := HS.out; omega) (w4.drewN nn) (h4.below hb0)).mono ?_
        rintro e w' (⟨rfl, _, g1, g2, g3⟩ | ⟨rfl, g1, _⟩)
        · exact ⟨rfl, g1, g2, (hbb4.trans (But.of_below hb0)).trans g3, boxed_but (boxed_below hx4 hb0) g3 hne⟩
        · rw [HQ.out, hp] at g1; cases g1)
      have HP := Lib.hid hp
      clear hp hw4 h4 hx4 c3 c7 c9 f7 f9 hqs
      go_region_with (go_at_call 55; refine (HT.out 1).mono ?_; rintro e w5 ⟨rfl, hj1, h5, hb5, hx5⟩; have x5 := hx5.cell; have g2 : w5.cell? ⟨b, 2, none⟩ = some (.int .i64 (d.st : Nat)) := h5.cell 2; have e2 := h5.frozen 2; have H5 := Lib.hid h5; have HJ1 := Lib.hid hj1; clear hj1 h5 hx5)
      all_goals
        go_wp2_with fail
        go_end0
        exact ⟨rfl, hb5.trans (But.set _ _ _ _), V3, by rw [HV3.out, HV.out], .inl ⟨HP.out, HJ1.out, H5.out.setSt 12⟩⟩
    · rw [Bool.not_eq_true] at hp
      have HT : Hid (∀ nn, Calls Tryz.prog 55 #[.pointer (some ⟨b, 0, none⟩), .string d.q] (w4.drewN nn) fun e w' => e = .returned (.bool false) ∧ DAt w' b s (j + N) (named2 d true V3) ∧ But b w w') := Lib.hid (by
        intro nn
        have hb0 : Below w4.heap.size w4 (w4.drewN nn) := _root_.Go.below_drewN (Below.refl _ _) nn
        refine (dTook b s d.q (j + N) 1 _ hqs HJN.out (by have := HS.out; omega) (w4.drewN nn) (h4.below hb0)).mono ?_
        rintro e w' (⟨rfl, g1, _⟩ | ⟨rfl, _, g2, g3⟩)
        · rw [HQ.out, hp] at g1; cases g1
        · exact ⟨rfl, g2, (hbb4.trans (But.of_below hb0)).trans g3⟩)
      have HP := Lib.hid hp
      clear hp hw4 h4 hx4 c3 c7 c9 f7 f9 hqs
      go_region_with (go_at_call 55; refine (HT.out 1).mono ?_; rintro e w5 ⟨rfl, h5, hb5⟩; have H5 := Lib.hid h5; clear h5)
      all_goals
        go_wp2_with fail
        go_end0
        exact ⟨rfl, hb5, V3, by rw [HV3.out, HV.out], .inr ⟨HP.out, HJN.out, H5.out⟩⟩
end Go.Proofs.YtofiaodpjpjedaaGreatDoor
