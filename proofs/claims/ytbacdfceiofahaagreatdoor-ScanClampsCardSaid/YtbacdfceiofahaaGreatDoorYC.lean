/-
  A token that is stored in a result's block.
  The program's readers of what follows "<", "</" and "<!".
  The program's readers, each as a function of what stands from its offset on.
  ScanClamps: an offset below 0 counts as 0, one above the length as the length; what a reader consumes lies between its offset and the end.
  The frame of the rows that list the table of the controls as well.
-/
import Derived.Test.YtbacdfceiofahaaGreatDoorY46
import Derived.Laws.Tables
import Derived.Laws.Rows
import Derived.Test.YtbacdfceiofahaaGreatDoorY39
import Derived.Deep.RegionHeld3
import Derived.Deep.RegionWith
import Derived.Test.YtbacdfceiofahaaGreatDoorY47
import Derived.Test.YtbacdfceiofahaaGreatDoorY30
import Derived.Test.YtbacdfceiofahaaGreatDoorY29
namespace Go.Proofs.YtbacdfceiofahaaGreatDoor
open Go.RowKit Go.Shelf Go.Lib
set_option maxHeartbeats 4000000
set_option maxRecDepth 100000

theorem TokAt.frz {w : World} {g : Nat} {cs : Array Value} (h : TokAt w g cs) : w.frozen? ⟨g, 0, none⟩ = false ∧ w.frozen? ⟨g, 1, none⟩ = false ∧ w.frozen? ⟨g, 2, none⟩ = false ∧ w.frozen? ⟨g, 3, none⟩ = false ∧ w.frozen? ⟨g, 4, none⟩ = false ∧ w.frozen? ⟨g, 5, none⟩ = false ∧ w.frozen? ⟨g, 6, none⟩ = false ∧ w.frozen? ⟨g, 7, none⟩ = false ∧ w.frozen? ⟨g, 8, none⟩ = false ∧ w.frozen? ⟨g, 9, none⟩ = false ∧ w.frozen? ⟨g, 10, none⟩ = false ∧ w.frozen? ⟨g, 11, none⟩ = false :=
  ⟨h.frozen 0, h.frozen 1, h.frozen 2, h.frozen 3, h.frozen 4, h.frozen 5, h.frozen 6, h.frozen 7, h.frozen 8, h.frozen 9, h.frozen 10, h.frozen 11⟩
/-- The empty token. -/
def tok0 : Array Value := #[.int .i64 0, .string ⟨#[]⟩, .bool false, .string ⟨#[]⟩, .bool false, .string ⟨#[]⟩, .bool false, .bool false, .slice none 0 0, .bool false, .string ⟨#[]⟩, .int .i32 0]
theorem retW {w W : World} {r : Nat} (hR : TokAt W r tok0) (hb : Below w.heap.size w W) (hr : w.heap.size ≤ r) (v0 v1 v2 v3 v4 v5 v6 v7 v8 v9 v10 v11 : Value) :
    ∃ w3, (((((((((((((W.setCell ⟨r, 0, none⟩ v0).setCell ⟨r, 1, none⟩ v1).setCell ⟨r, 2, none⟩ v2).setCell ⟨r, 3, none⟩ v3).setCell ⟨r, 4, none⟩ v4).setCell ⟨r, 5, none⟩ v5).setCell ⟨r, 6, none⟩ v6).setCell ⟨r, 7, none⟩ v7).setCell ⟨r, 8, none⟩ v8).setCell ⟨r, 9, none⟩ v9).setCell ⟨r, 10, none⟩ v10).setCell ⟨r, 11, none⟩ v11) = w3) ∧ TokAt w3 r #[v0, v1, v2, v3, v4, v5, v6, v7, v8, v9, v10, v11] ∧ Below w.heap.size w w3 ∧ But r W w3 :=
  ⟨_, rfl, st12_heap hR v0 v1 v2 v3 v4 v5 v6 v7 v8 v9 v10 v11, below_but hb (st12_but W r v0 v1 v2 v3 v4 v5 v6 v7 v8 v9 v10 v11) hr, st12_but W r v0 v1 v2 v3 v4 v5 v6 v7 v8 v9 v10 v11⟩
theorem retW2 {w W : World} {r : Nat} {c0 c1 c2 c3 c4 c5 c6 c7 c8 c9 c10 c11 : Value} (hR : TokAt W r #[c0, c1, c2, c3, c4, c5, c6, c7, c8, c9, c10, c11]) (hb : Below w.heap.size w W) (hr : w.heap.size ≤ r) (v0 v1 v2 v3 v4 v5 v6 v7 v8 v9 v10 v11 : Value) :
    ∃ w3, (((((((((((((W.setCell ⟨r, 0, none⟩ v0).setCell ⟨r, 1, none⟩ v1).setCell ⟨r, 2, none⟩ v2).setCell ⟨r, 3, none⟩ v3).setCell ⟨r, 4, none⟩ v4).setCell ⟨r, 5, none⟩ v5).setCell ⟨r, 6, none⟩ v6).setCell ⟨r, 7, none⟩ v7).setCell ⟨r, 8, none⟩ v8).setCell ⟨r, 9, none⟩ v9).setCell ⟨r, 10, none⟩ v10).setCell ⟨r, 11, none⟩ v11) = w3) ∧ TokAt w3 r #[v0, v1, v2, v3, v4, v5, v6, v7, v8, v9, v10, v11] ∧ Below w.heap.size w w3 ∧ But r W w3 :=
  ⟨_, rfl, st12_heap hR v0 v1 v2 v3 v4 v5 v6 v7 v8 v9 v10 v11, below_but hb (st12_but W r v0 v1 v2 v3 v4 v5 v6 v7 v8 v9 v10 v11) hr, st12_but W r v0 v1 v2 v3 v4 v5 v6 v7 v8 v9 v10 v11⟩
theorem below_two {w W : World} {g i j : Nat} {u v : Value} (h : Below w.heap.size w W) (hg : w.heap.size ≤ g) : Below w.heap.size w ((W.setCell ⟨g, i, none⟩ u).setCell ⟨g, j, none⟩ v) :=
  below_but (below_but h (But.set _ _ _ _) hg) (But.set _ _ _ _) hg
theorem retWb {W : World} {r : Nat} (hR : TokAt W r tok0) (v0 v1 v2 v3 v4 v5 v6 v7 v8 v9 v10 v11 : Value) :
    ∃ w3, (((((((((((((W.setCell ⟨r, 0, none⟩ v0).setCell ⟨r, 1, none⟩ v1).setCell ⟨r, 2, none⟩ v2).setCell ⟨r, 3, none⟩ v3).setCell ⟨r, 4, none⟩ v4).setCell ⟨r, 5, none⟩ v5).setCell ⟨r, 6, none⟩ v6).setCell ⟨r, 7, none⟩ v7).setCell ⟨r, 8, none⟩ v8).setCell ⟨r, 9, none⟩ v9).setCell ⟨r, 10, none⟩ v10).setCell ⟨r, 11, none⟩ v11) = w3) ∧ TokAt w3 r #[v0, v1, v2, v3, v4, v5, v6, v7, v8, v9, v10, v11] ∧ But r W w3 :=
  ⟨_, rfl, st12_heap hR v0 v1 v2 v3 v4 v5 v6 v7 v8 v9 v10 v11, st12_but W r v0 v1 v2 v3 v4 v5 v6 v7 v8 v9 v10 v11⟩
theorem but_but {b r : Nat} {w w2 w3 : World} (h : But b w w2) (k : But r w2 w3) (hr : w.heap.size ≤ r) : But b w w3 :=
  ⟨k.os.trans h.os, k.tape.trans h.tape, k.output.trans h.output, Nat.le_trans h.size k.size, fun j hj hne => (k.block j (Nat.lt_of_lt_of_le hj h.size) (fun e => by cases e; omega)).trans (h.block j hj hne)⟩
theorem but_drewN {b : Nat} {w w2 : World} (h : But b w w2) : But b w w2.drew := h.trans (But.of_below (Below.drew (Below.refl _ _)))
/-- What a method of the caller's cursor answers. -/
def MkRb (b k : Nat) (x : TokS × List UInt8 × Nat) (w : World) (e : Ending) (w' : World) : Prop :=
  ∃ v, e = .returned (.tuple #[v, .string (bl x.2.1), .int .i64 ((k + x.2.2 : Nat) : Int)]) ∧ TokRow w' v x.1 ∧ But b w w'
theorem TokAt.zero {w : World} {r : Nat} (h : TokAt w r tok0) : w.cell? ⟨r, 0, none⟩ = some (.int .i64 0) ∧ w.cell? ⟨r, 1, none⟩ = some (.string ⟨#[]⟩) ∧ w.cell? ⟨r, 2, none⟩ = some (.bool false) ∧ w.cell? ⟨r, 3, none⟩ = some (.string ⟨#[]⟩) ∧ w.cell? ⟨r, 4, none⟩ = some (.bool false) ∧ w.cell? ⟨r, 5, none⟩ = some (.string ⟨#[]⟩) ∧ w.cell? ⟨r, 6, none⟩ = some (.bool false) ∧ w.cell? ⟨r, 7, none⟩ = some (.bool false) ∧ w.cell? ⟨r, 8, none⟩ = some (.slice none 0 0) ∧ w.cell? ⟨r, 9, none⟩ = some (.bool false) ∧ w.cell? ⟨r, 10, none⟩ = some (.string ⟨#[]⟩) ∧ w.cell? ⟨r, 11, none⟩ = some (.int .i32 0) := TokAt.cells h
theorem setRow_but (w : World) (g : Nat) (cs : Array Value) : But g w (w.setRow g cs) :=
  ⟨rfl, rfl, rfl, by rw [size_setRow]; exact Nat.le_refl _, fun j _ hne => setRow_other w g j cs (fun e => hne (by rw [e]))⟩
/-- A whole token goes into a block; the world behind it under a name of its own. -/
theorem wpList_store_tok {P : Program} {ops : Array Oper} {rest : List Oper} {o : Oper} {a : Act} {w : World} {Q : Exit → Act → World → Prop} (hgd : o.guard = none) (ty : TypeId) (x y : Operand) (ho : o.op = .store ty x y)
    (g : Nat) (cells : Array Value) (hx : a.eval x = .pointer (some ⟨g, 0, none⟩)) (hy : a.eval y = .agg cells)
    (t : TypeId) (old : Array Value) (hg : w.heap[g]? = some (.cells old t (0, 0))) (hi : (P.info? ty).map (·.size) = some cells.size)
    (hold : old.size = cells.size) (h1 : cells.all (·.oneCell') = true)
    (h : ∀ w', w'.heap[g]? = some (.cells cells t (0, 0)) → But g w w' → wpList P ops Q rest (a.put o.dst undef) w') : wpList P ops Q (o :: rest) a w :=
  wpList_store_row hgd ty x y ho g cells hx hy t old hg hi hold h1 (h _ (setRow_heap w g old cells t (0, 0) hg) (setRow_but w g cells))
theorem oc12 (k1 r1 : Int) (n1 p1 y1 d1 : ByteArray) (hn1 hp1 hy1 q1 sc1 : Bool) (A1 : Option Addr) (pn1 pc1 : Nat) : (#[Value.int .i64 k1, .string n1, .bool hn1, .string p1, .bool hp1, .string y1, .bool hy1, .bool q1, .slice A1 pn1 pc1, .bool sc1, .string d1, .int .i32 r1] : Array Value).all (·.oneCell') = true := by simp [Value.oneCell']
theorem attrRow_but {w w' : World} {v : Value} {acc : AttL} {r : Nat} {cs : Array Value} {T : TypeId} {x : Bool} (h : AttrRow w v acc) (hr : w.heap[r]? = some (.cells cs T (0, 0))) (h2 : cs[2]? = some (.bool x)) (hb : But r w w') : AttrRow w' v acc := by
  obtain ⟨A, cap, rfl, hc⟩ := h
  refine ⟨A, cap, rfl, fun i hi => ?_⟩
  obtain ⟨g, hA, hg, c0, c1, c2⟩ := hc i hi
  obtain ⟨g0, hA0, _, _, _, d2⟩ := hc 0 (Nat.lt_of_le_of_lt (Nat.zero_le _) hi)
  have hgg : g0 = g := by
    rw [hA] at hA0
    injection hA0 with e
    injection e with e
    exact e.symm
  subst hgg
  have hne : g0 ≠ r := by
    rintro rfl
    rw [heap_cell hr, show 0 * 3 + 2 = 2 from rfl, h2] at d2
    injection d2 with d3
    cases d3
  have e : w'.heap[g0]? = w.heap[g0]? := hb.block g0 hg (fun e => hne (by cases e; rfl))
  have ec : ∀ o, w'.cell? ⟨g0, o, none⟩ = w.cell? ⟨g0, o, none⟩ := fun o => by simp [World.cell?, e]
  exact ⟨g0, hA, Nat.lt_of_lt_of_le hg hb.size, (ec _).trans c0, (ec _).trans c1, (ec _).trans c2⟩
theorem tokRow_but {w w' : World} {v : Value} {T : TokS} {r : Nat} {cs : Array Value} {t : TypeId} {x : Bool} (h : TokRow w v T) (hr : w.heap[r]? = some (.cells cs t (0, 0))) (h2 : cs[2]? = some (.bool x)) (hb : But r w w') : TokRow w' v T := by
  obtain ⟨av, e, ha, hz⟩ := h
  exact ⟨av, e, attrRow_but ha hr h2 hb, hz⟩
end Go.Proofs.YtbacdfceiofahaaGreatDoor

namespace Go.Proofs.YtbacdfceiofahaaGreatDoor
open Go.RowKit Go.Shelf Go.Lib
set_option maxHeartbeats 4000000
set_option maxRecDepth 100000

theorem isQuestion (r : Int) (w : World) : Calls Tryz.prog 94 #[.int .i32 r] w fun e w' => e = .returned (.bool (decide (r = 63))) ∧ Below w.heap.size w w' := by
  go_enter Tryz.func94, Tryz.ntmps94
  go_wp2
  go_ret
  exact ⟨ret_bool (by rw [Bool.eq_iff_iff]; simp), by (repeat' (first | (with_reducible exact Below.refl _ _) | (with_reducible assumption) | (with_reducible refine below_alloc ?_ _) | (with_reducible refine Below.drew ?_) | (with_reducible refine _root_.Go.below_drewN ?_ _) | (with_reducible refine Below.setCell ?_ ?_ _) | go_size | (refine below_next ?_ (by assumption))))⟩
theorem foldedE (b : Nat) (x : Value) (T : TypeId) (s p : ByteArray) (k : Nat) (hp : lowL p.data.toList = p.data.toList) (hk : k ≤ s.size) (hs : s.size ≤ 1000000000) (w : World) (h : At w b #[.string s, x] T s k) :
    Calls Tryz.prog 98 #[.pointer (some ⟨b, 0, none⟩), .string p] w fun e w' =>
      (e = .returned (.bool true) ∧ lowL ((s.data.toList.drop k).take p.size) = p.data.toList ∧ k + p.size ≤ s.size ∧ At w' b #[.string s, .int .i64 ((k + p.size : Nat) : Int)] T s (k + p.size) ∧ But b w w') ∨
      (e = .returned (.bool false) ∧ lowL ((s.data.toList.drop k).take p.size) ≠ p.data.toList ∧ At w' b #[.string s, x] T s k ∧ But b w w') := by
  refine (curFoldedH foldB (fun a p w ha => equalFold a p (by unfold maxLen; omega) w) b _ _ s p k hk hs w h).mono ?_
  have hx : ((s.extract k s.size).extract 0 p.size).data.toList = (s.data.toList.drop k).take p.size := by
    rw [Lib.extract_data, ext_drop]; simp
  have hf : foldB ((s.extract k s.size).extract 0 p.size) p = (lowL ((s.data.toList.drop k).take p.size) == p.data.toList) := by
    unfold foldB
    rw [List.map_congr_left fun b _ => lowU_low' b, List.map_congr_left fun b _ => lowU_low' b, hx]
    show (lowL _ == lowL p.data.toList) = _
    rw [hp]
  rw [hf]
  rintro e w' (⟨rfl, h1, h2, h3, h4⟩ | ⟨rfl, h2, h3, h4⟩)
  · exact .inl ⟨rfl, by simpa using h2, h1, h3, h4⟩
  · refine .inr ⟨rfl, ?_, h3, h4⟩
    rcases h2 with h2 | h2
    · intro e
      have := congrArg List.length e
      simp only [lowL, List.length_map, List.length_take, List.length_drop, size_list] at this
      omega
    · simpa using h2

theorem mkR_com {k o : Nat} {d : List UInt8} (w w' : World) (hb : Below w.heap.size w w') : MkR k ({ kind := 4, data := d }, [], o) w (.returned (.tuple #[.agg #[.int .i64 4, .string ⟨#[]⟩, .bool false, .string ⟨#[]⟩, .bool false, .string ⟨#[]⟩, .bool false, .bool false, .slice none 0 0, .bool false, .string (bl d), .int .i32 0], .string ⟨#[]⟩, .int .i64 ((k + o : Nat) : Int)])) w' :=
  ⟨_, rfl, tokRow_plain w' { kind := 4, data := d } rfl, hb⟩
theorem mkR_com' {k o N : Nat} {d : List UInt8} (w w' : World) (hb : Below w.heap.size w w') (h : k + o = N) : MkR k ({ kind := 4, data := d }, [], o) w (.returned (.tuple #[.agg #[.int .i64 4, .string ⟨#[]⟩, .bool false, .string ⟨#[]⟩, .bool false, .string ⟨#[]⟩, .bool false, .bool false, .slice none 0 0, .bool false, .string (bl d), .int .i32 0], .string ⟨#[]⟩, .int .i64 (N : Int)])) w' := by
  subst h
  exact mkR_com w w' hb
theorem mkR_chars {k o : Nat} {c : List UInt8} (w w' : World) (hb : Below w.heap.size w w') : MkR k ({}, c, o) w (.returned (.tuple #[.agg #[.int .i64 0, .string ⟨#[]⟩, .bool false, .string ⟨#[]⟩, .bool false, .string ⟨#[]⟩, .bool false, .bool false, .slice none 0 0, .bool false, .string ⟨#[]⟩, .int .i32 0], .string (bl c), .int .i64 ((k + o : Nat) : Int)])) w' :=
  ⟨_, rfl, tokRow_plain w' {} rfl, hb⟩

/-- bogus: a comment up to the next ">". -/
theorem bogusM (b : Nat) (s : ByteArray) (k : Nat) (hk : k ≤ s.size) (hs : s.size ≤ 1000000) (m : Int) (w : World) (hm : w.cell? ⟨1, 0, none⟩ = some (.int .i64 m)) (R : RefF) (h : At w b #[.string s, .int .i64 k] 82 s k) :
    Calls Tryz.prog 95 #[.pointer (some ⟨b, 0, none⟩)] w (MkR k (goT R (s.data.toList.drop k) (bogZ (s.data.toList.drop k))) w) := by
  have hB := fun W hm => bogusC s k m (by omega) W hm
  rw [clip_nat s k hk, tlS_nat s k hk] at hB
  show Calls _ _ _ _ (MkR k ({ kind := 4, data := nulL (utL [62] (s.data.toList.drop k)).1 }, [], (utL [62] (s.data.toList.drop k)).2) w)
  generalize (utL [62] (s.data.toList.drop k)).2 = n at hB ⊢
  generalize nulL (utL [62] (s.data.toList.drop k)).1 = d at hB ⊢
  obtain ⟨D, hD⟩ : ∃ D, D = bl d := ⟨_, rfl⟩
  have HD := Lib.hid hD
  rw [← hD] at hB
  obtain ⟨N, hN⟩ : ∃ N : Int, N = ((k + n : Nat) : Int) := ⟨_, rfl⟩
  have HN := Lib.hid hN
  rw [← hN] at hB
  have hR0 : TokAt (w.alloc (.cells #[.int .i64 0, .string ⟨#[]⟩, .bool false, .string ⟨#[]⟩, .bool false, .string ⟨#[]⟩, .bool false, .bool false, .slice none 0 0, .bool false, .string ⟨#[]⟩, .int .i32 0] 27)) w.heap.size tok0 := tokAt_new w _
  have hB0 : Below w.heap.size w (w.alloc (.cells #[.int .i64 0, .string ⟨#[]⟩, .bool false, .string ⟨#[]⟩, .bool false, .string ⟨#[]⟩, .bool false, .bool false, .slice none 0 0, .bool false, .string ⟨#[]⟩, .int .i32 0] 27)) := below_alloc (Below.refl _ _) _
  have hat := h.below hB0
  have hm0 := carry hm hB0
  obtain ⟨r, hr⟩ : ∃ r, r = w.heap.size := ⟨_, rfl⟩
  obtain ⟨W, hW⟩ : ∃ W, w.alloc (.cells #[.int .i64 0, .string ⟨#[]⟩, .bool false, .string ⟨#[]⟩, .bool false, .string ⟨#[]⟩, .bool false, .bool false, .slice none 0 0, .bool false, .string ⟨#[]⟩, .int .i32 0] 27) = W := ⟨_, rfl⟩
  rw [hW] at hR0 hB0 hat hm0
  rw [← hr] at hR0
  have hb0 := hat.lt
  have h0 := hat.cell0
  have h1 := hat.cell1
  have HM := Lib.hid hm0
  have HRA := Lib.hid hR0
  have HB0 := Lib.hid hB0
  have HR0 := Lib.hid (show w.heap.size ≤ r by omega)
  have HRE := Lib.hid hr
  have HWE := Lib.hid hW
  have HBO : Hid (∀ W', (W'.cell? ⟨b, 0, none⟩ = some (.string s) ∧ W'.cell? ⟨b, 1, none⟩ = some (.int .i64 k) ∧ b < W'.heap.size ∧ Below W.heap.size W W') → Calls Tryz.prog 33 #[.string s, .int .i64 k] W' fun e w' => e = .returned (.tuple #[.string D, .int .i64 N]) ∧ w'.cell? ⟨b, 0, none⟩ = some (.string s) ∧ w'.cell? ⟨b, 1, none⟩ = some (.int .i64 k) ∧ b < w'.heap.size ∧ Below W.heap.size W w') := Lib.hid (by
    rintro W' ⟨y0, y1, y2, y3⟩
    refine (hB W' (carry hm0 y3)).mono ?_
    rintro e w' ⟨rfl, hb⟩
    exact ⟨rfl, (hb.cell (p := ⟨b, 0, none⟩) y2).trans y0, (hb.cell (p := ⟨b, 1, none⟩) y2).trans y1, Nat.lt_of_lt_of_le y2 hb.size, below_next y3 hb⟩)
  clear hm hk hs h hD hN hB hR0 hB0 hat hm0 hW hr
  go_enter Tryz.func95, Tryz.ntmps95
  go_wp2_with fail
  rw [HWE.out, ← HRE.out]
  go_region_held3 (fun w' => w'.cell? ⟨b, 0, none⟩ = some (.string s) ∧ w'.cell? ⟨b, 1, none⟩ = some (.int .i64 k) ∧ b < w'.heap.size ∧ Below W.heap.size W w')
    (first | exact ⟨h0, h1, hb0, Below.drew (Below.refl _ _)⟩ | exact ⟨h0, h1, hb0, Below.refl _ _⟩ | exact ⟨by assumption, by assumption, by assumption, by assumption⟩ | go_keep)
    (first | (go_at_call 33; refine (HBO.out _ (by first | assumption | exact ⟨by assumption, by assumption, by assumption, by first | assumption | exact Below.drew (by assumption)⟩)).mono ?_; rintro e wx ⟨rfl, d0, d1, d2, d3⟩))
  all_goals
    have hR := HRA.out.below d3
    have HRR := Lib.hid hR
    obtain ⟨z0, z1, z2, z3, z4, z5, z6, z7, z8, z9, z10, z11⟩ := TokAt.zero hR
    obtain ⟨y0, y1, y2, y3, y4, y5, y6, y7, y8, y9, y10, y11⟩ := TokAt.frz hR
    clear hR
    go_wp2_with fail
    obtain ⟨w3, hw3, h3, hb3, hbut⟩ := retW HRR.out (below_next HB0.out d3) HR0.out (.int .i64 4) (.string ⟨#[]⟩) (.bool false) (.string ⟨#[]⟩) (.bool false) (.string ⟨#[]⟩) (.bool false) (.bool false) (.slice none 0 0) (.bool false) (.string D) (.int .i32 0)
    rw [hw3]
    obtain ⟨r0, r1, r2, r3, r4, r5, r6, r7, r8, r9, r10, r11⟩ := h3.cells
    clear hw3
    refine bodyPost_ret (v := .tuple #[.agg #[.int .i64 4, .string ⟨#[]⟩, .bool false, .string ⟨#[]⟩, .bool false, .string ⟨#[]⟩, .bool false, .bool false, .slice none 0 0, .bool false, .string D, .int .i32 0], .string ⟨#[]⟩, .int .i64 N]) (by simp [results, Tryz.results95, go_sem, r0, r1, r2, r3, r4, r5, r6, r7, r8, r9, r10, r11]) rfl ?_
    rw [HN.out, HD.out]
    exact mkR_com w w3 hb3
theorem declM (lg : List UInt8 → Nat × List UInt8) (s : ByteArray) (a : Int) (cd : Bool) (m : Int) (hs : s.size ≤ 1000000) (w : World) (hm : w.cell? ⟨1, 0, none⟩ = some (.int .i64 m)) :
    Calls Tryz.prog 27 #[.string s, .int .i64 a, .bool cd] w (MkR (clip s a) (declT (refL lg true) cd (tlS s a)) w) := by
  have HC := Lib.hid (fun W => cursorAt s a (by unfold maxLen; omega) W)
  have hk := clip_le s a
  unfold tlS
  generalize clip s a = k at HC hk ⊢
  have hR0 : TokAt (w.alloc (.cells #[.int .i64 0, .string ⟨#[]⟩, .bool false, .string ⟨#[]⟩, .bool false, .string ⟨#[]⟩, .bool false, .bool false, .slice none 0 0, .bool false, .string ⟨#[]⟩, .int .i32 0] 27)) w.heap.size tok0 := tokAt_new w _
  have hB0 : Below w.heap.size w (w.alloc (.cells #[.int .i64 0, .string ⟨#[]⟩, .bool false, .string ⟨#[]⟩, .bool false, .string ⟨#[]⟩, .bool false, .bool false, .slice none 0 0, .bool false, .string ⟨#[]⟩, .int .i32 0] 27)) := below_alloc (Below.refl _ _) _
  obtain ⟨r, hr⟩ : ∃ r, r = w.heap.size := ⟨_, rfl⟩
  obtain ⟨W, hW⟩ : ∃ W, w.alloc (.cells #[.int .i64 0, .string ⟨#[]⟩, .bool false, .string ⟨#[]⟩, .bool false, .string ⟨#[]⟩, .bool false, .bool false, .slice none 0 0, .bool false, .string ⟨#[]⟩, .int .i32 0] 27) = W := ⟨_, rfl⟩
  rw [hW] at hR0 hB0
  rw [← hr] at hR0
  have HM := Lib.hid hm
  have HRA := Lib.hid hR0
  have HB0 := Lib.hid hB0
  have HR0 := Lib.hid (show w.heap.size ≤ r by omega)
  have HRE := Lib.hid hr
  have HWE := Lib.hid hW
  have HK := Lib.hid hk
  have HS := Lib.hid hs
  clear hm hk hs hR0 hB0 hW hr
  go_enter Tryz.func27, Tryz.ntmps27
  go_wp2_with fail
  rw [HWE.out, ← HRE.out]
  refine (HC.out W).mono ?_
  rintro e w1 ⟨rfl, hb1⟩
  have hR1 := HRA.out.below hb1
  have hB1 := below_next HB0.out hb1
  go_wp2_with fail
  have hat : At (w1.alloc (.cells #[.string s, .int .i64 k] 82)) w1.heap.size #[.string s, .int .i64 k] 82 s k := at_new rfl
  have hr2 := hR1.below (below_alloc (Below.refl w1.heap.size w1) (.cells #[.string s, .int .i64 k] 82))
  have hB2 : Below w.heap.size w (w1.alloc (.cells #[.string s, .int .i64 k] 82)) := below_alloc hB1 _
  have hrc : r ≠ w1.heap.size := Nat.ne_of_lt hR1.lt
  have hle : w.heap.size ≤ w1.heap.size := hB1.size
  generalize w1.alloc (.cells #[.string s, .int .i64 k] 82) = w2 at hat hr2 hB2 ⊢
  generalize w1.heap.size = cb at hat hrc hle ⊢
  have HT := Lib.hid (tookE cb _ 82 s ⟨#[45, 45]⟩ k 2 rfl HK.out (by have := HS.out; omega) w2 hat)
  have HAT := Lib.hid hat
  have HR2 := Lib.hid hr2
  have HB2 := Lib.hid hB2
  have HRC := Lib.hid hrc
  have HLE := Lib.hid hle
  clear hat hr2 hB2 hrc hle hR1 hB1 hb1
  refine HT.out.mono ?_
  rintro e w3 (⟨rfl, hp, hk2, h3, hB3⟩ | ⟨rfl, hp, h3, hB3⟩)
  · have hR3 := HR2.out.but hB3 HRC.out
    have hb3 := below_but HB2.out hB3 HLE.out
    have HB3 := Lib.hid hb3
    have HR3 := Lib.hid hR3
    have c1 := h3.cell1
    have hfin : declT (refL lg true) cd (s.data.toList.drop k) = ({ kind := 4, data := (comL (s.data.toList.drop (k + 2))).1 }, [], 2 + (comL (s.data.toList.drop (k + 2))).2) := by
      unfold declT declZ
      rw [if_pos hp, List.drop_drop]
      rfl
    have HF := Lib.hid hfin
    have HCO := Lib.hid (fun W hm => commentC s ((k + 2 : Nat) : Int) m HS.out W hm)
    rw [clip_nat s (k + 2) hk2, tlS_nat s (k + 2) hk2] at HCO
    generalize (comL (s.data.toList.drop (k + 2))).2 = n at HCO HF
    generalize (comL (s.data.toList.drop (k + 2))).1 = d at HCO HF
    obtain ⟨D, hD⟩ : ∃ D, D = bl d := ⟨_, rfl⟩
    have HD := Lib.hid hD
    rw [← hD] at HCO
    obtain ⟨N, hN⟩ : ∃ N : Int, N = ((k + 2 + n : Nat) : Int) := ⟨_, rfl⟩
    have HN := Lib.hid hN
    rw [← hN, show ((k + 2 : Nat) : Int) = (k : Int) + 2 by omega] at HCO
    clear hp h3 hB3 hR3 hb3 hfin hD hN
    go_wp2_with fail
    refine (HCO.out w3 (carry HM.out HB3.out)).mono ?_
    rintro e w4 ⟨rfl, hb4⟩
    have hR := HR3.out.below hb4
    have hB4 := below_next HB3.out hb4
    have hR2 : TokAt ((w4.setCell ⟨r, 10, none⟩ (.string D)).setCell ⟨r, 0, none⟩ (.int .i64 4)) r #[.int .i64 4, .string ⟨#[]⟩, .bool false, .string ⟨#[]⟩, .bool false, .string ⟨#[]⟩, .bool false, .bool false, .slice none 0 0, .bool false, .string D, .int .i32 0] := heap_set (heap_set hR 10 _) 0 _
    have hBS := below_two (i := 10) (j := 0) (u := .string D) (v := .int .i64 4) hB4 HR0.out
    have HRR := Lib.hid hR2
    have HBS := Lib.hid hBS
    obtain ⟨z0, z1, z2, z3, z4, z5, z6, z7, z8, z9, z10, z11⟩ := TokAt.zero hR
    obtain ⟨y0, y1, y2, y3, y4, y5, y6, y7, y8, y9, y10, y11⟩ := TokAt.frz hR
    clear hR hR2 hBS
    go_wp2_with fail
    obtain ⟨w3', hw3, h3', hb3, hbut⟩ := retW2 HRR.out HBS.out HR0.out (.int .i64 4) (.string ⟨#[]⟩) (.bool false) (.string ⟨#[]⟩) (.bool false) (.string ⟨#[]⟩) (.bool false) (.bool false) (.slice none 0 0) (.bool false) (.string D) (.int .i32 0)
    rw [hw3]
    obtain ⟨r0, r1, r2, r3, r4, r5, r6, r7, r8, r9, r10, r11⟩ := h3'.cells
    clear hw3
    refine bodyPost_ret (v := .tuple #[.agg #[.int .i64 4, .string ⟨#[]⟩, .bool false, .string ⟨#[]⟩, .bool false, .string ⟨#[]⟩, .bool false, .bool false, .slice none 0 0, .bool false, .string D, .int .i32 0], .string ⟨#[]⟩, .int .i64 N]) (by simp [results, Tryz.results27, go_sem, r0, r1, r2, r3, r4, r5, r6, r7, r8, r9, r10, r11]) rfl ?_
    rw [HF.out, HN.out, HD.out]
    exact mkR_com' w w3' hb3 (by omega)
  · have hR3 := HR2.out.but hB3 HRC.out
    have hb3 := below_but HB2.out hB3 HLE.out
    have HB3 := Lib.hid hb3
    have HR3 := Lib.hid hR3
    have HP := Lib.hid hp
    have HFO := Lib.hid (foldedE cb _ 82 s ⟨#[100, 111, 99, 116, 121, 112, 101]⟩ k rfl HK.out (by have := HS.out; omega) w3 h3)
    clear hp h3 hB3 hR3 hb3
    go_wp2_with fail
    refine HFO.out.mono ?_
    rintro e w4 (⟨rfl, hl, hk7, h4, hB4⟩ | ⟨rfl, hl, h4, hB4⟩)
    · have hR4 := HR3.out.but hB4 HRC.out
      have hb4 := below_but HB3.out hB4 HLE.out
      have HB4 := Lib.hid hb4
      have HR4 := Lib.hid hR4
      have hk7' : k + 7 ≤ s.size := hk7
      have c1 : w4.cell? ⟨cb, 1, none⟩ = some (.int .i64 ((k + 7 : Nat) : Int)) := h4.cell1
      have hl' : lowL ((s.data.toList.drop k).take 7) = sDoctype := hl
      have hfin : declT (refL lg true) cd (s.data.toList.drop k) = ((docT (s.data.toList.drop (k + 7))).1, [], 7 + (docT (s.data.toList.drop (k + 7))).2) := by
        unfold declT declZ
        rw [HP.out, if_neg Bool.false_ne_true, if_pos hl']
        show (_, _, _) = _
        rw [List.drop_drop]
      have HF := Lib.hid hfin
      have HD := Lib.hid (fun W hm => docM s ((k + 7 : Nat) : Int) m HS.out W hm)
      rw [clip_nat s (k + 7) hk7', tlS_nat s (k + 7) hk7', show ((k + 7 : Nat) : Int) = (k : Int) + 7 by omega] at HD
      generalize docT (s.data.toList.drop (k + 7)) = X at HD HF
      obtain ⟨T, n⟩ := X
      unfold DocR at HD
      obtain ⟨N, hN⟩ : ∃ N : Int, N = ((k + 7 + n : Nat) : Int) := ⟨_, rfl⟩
      simp only [← hN] at HD
      have HN := Lib.hid (show ((k + (7 + n) : Nat) : Int) = N by rw [hN]; omega)
      clear hl hl' hk7 hk7' h4 hB4 hR4 hb4 hfin hN
      go_wp2_with fail
      refine (HD.out w4 (carry HM.out HB4.out)).mono ?_
      rintro e w5 ⟨v, rfl, ht, hb5⟩
      obtain ⟨k1, n1, hn1, p1, hp1, y1, hy1, q1, A1, pn1, pc1, sc1, d1, r1, rfl, -⟩ := ht.form
      have hR := HR4.out.below hb5
      have HB5 := Lib.hid (below_next HB4.out hb5)
      have HTK := Lib.hid ht
      clear ht hb5
      have HRR := Lib.hid (show w5.heap[r]? = some (.cells #[.int .i64 0, .string ⟨#[]⟩, .bool false, .string ⟨#[]⟩, .bool false, .string ⟨#[]⟩, .bool false, .bool false, .slice none 0 0, .bool false, .string ⟨#[]⟩, .int .i32 0] 27 (0, 0)) from hR)
      clear hR
      go_simp
      repeat (first
        | (refine wpList_store_tok (by rfl) 27 _ _ rfl r #[.int .i64 k1, .string n1, .bool hn1, .string p1, .bool hp1, .string y1, .bool hy1, .bool q1, .slice A1 pn1 pc1, .bool sc1, .string d1, .int .i32 r1] rfl rfl 27 _ HRR.out (by kernel_rfl) rfl (oc12 _ _ _ _ _ _ _ _ _ _ _ _ _ _) ?_; intro w6 h6 b6; have H6 := Lib.hid h6; have B6 := Lib.hid b6; clear h6 b6)
        | (refine wpList_load_row (by rfl) 27 _ rfl r rfl 27 _ (0, 0) _ H6.out Tryz.underlying27 rfl (by kernel_rfl) ?_)
        | (refine wpList_store_tok (by rfl) 27 _ _ rfl r #[.int .i64 k1, .string n1, .bool hn1, .string p1, .bool hp1, .string y1, .bool hy1, .bool q1, .slice A1 pn1 pc1, .bool sc1, .string d1, .int .i32 r1] rfl rfl 27 _ H6.out (by kernel_rfl) rfl (oc12 _ _ _ _ _ _ _ _ _ _ _ _ _ _) ?_; intro w7 h7 b7; have H7 := Lib.hid h7; have B7 := Lib.hid b7; clear h7 b7)
        | go_values
        | go_skip
        | go_guarded
        | go_step
        | go_upon
        | go_back)
      have hb7 := below_but (below_but HB5.out B6.out HR0.out) B7.out HR0.out
      obtain ⟨e0, e1, e2, e3, e4, e5, e6, e7, e8, e9, e10, e11⟩ := TokAt.cells (show TokAt w7 r #[.int .i64 k1, .string n1, .bool hn1, .string p1, .bool hp1, .string y1, .bool hy1, .bool q1, .slice A1 pn1 pc1, .bool sc1, .string d1, .int .i32 r1] from H7.out)
      refine bodyPost_ret (v := .tuple #[.agg #[.int .i64 k1, .string n1, .bool hn1, .string p1, .bool hp1, .string y1, .bool hy1, .bool q1, .slice A1 pn1 pc1, .bool sc1, .string d1, .int .i32 r1], .string ⟨#[]⟩, .int .i64 N]) (by simp [results, Tryz.results27, go_sem, e0, e1, e2, e3, e4, e5, e6, e7, e8, e9, e10, e11]) rfl ?_
      rw [HF.out, ← HN.out]
      exact ⟨_, rfl, tokRow_but (tokRow_but HTK.out HRR.out rfl B6.out) H6.out rfl B7.out, hb7⟩
    · have hR4 := HR3.out.but hB4 HRC.out
      have hb4 := below_but HB3.out hB4 HLE.out
      have HB4 := Lib.hid hb4
      have HR4 := Lib.hid hR4
      have hl' : lowL ((s.data.toList.drop k).take 7) ≠ sDoctype := hl
      have HL := Lib.hid hl'
      have H4 := Lib.hid h4
      clear hl hl' hB4 hR4 hb4
      cases cd with
      | false =>
        have c1 := h4.cell1
        clear h4
        have HBX := HB4
        have HRX := HR4
        have hfin : declT (refL lg true) false (s.data.toList.drop k) = ({ kind := 4, data := nulL (utL [62] (s.data.toList.drop k)).1 }, [], (utL [62] (s.data.toList.drop k)).2) := by
          unfold declT declZ
          rw [HP.out, if_neg Bool.false_ne_true, if_neg HL.out, Bool.false_and, if_neg Bool.false_ne_true]
          rfl
        have HF := Lib.hid hfin
        have HCO := Lib.hid (fun W hm => bogusC s (k : Int) m (by have := HS.out; omega) W hm)
        rw [clip_nat s k HK.out, tlS_nat s k HK.out] at HCO
        generalize (utL [62] (s.data.toList.drop k)).2 = n at HCO HF
        generalize nulL (utL [62] (s.data.toList.drop k)).1 = d at HCO HF
        obtain ⟨D, hD⟩ : ∃ D, D = bl d := ⟨_, rfl⟩
        have HD := Lib.hid hD
        rw [← hD] at HCO
        obtain ⟨N, hN⟩ : ∃ N : Int, N = ((k + n : Nat) : Int) := ⟨_, rfl⟩
        have HN := Lib.hid hN
        rw [← hN] at HCO
        clear hfin hD hN
        go_wp2_with fail
        refine (HCO.out w4 (carry HM.out HBX.out)).mono ?_
        rintro e wb ⟨rfl, hbb⟩
        have hR := HRX.out.below hbb
        have hBb := below_next HBX.out hbb
        have hR2 : TokAt ((wb.setCell ⟨r, 10, none⟩ (.string D)).setCell ⟨r, 0, none⟩ (.int .i64 4)) r #[.int .i64 4, .string ⟨#[]⟩, .bool false, .string ⟨#[]⟩, .bool false, .string ⟨#[]⟩, .bool false, .bool false, .slice none 0 0, .bool false, .string D, .int .i32 0] := heap_set (heap_set hR 10 _) 0 _
        have hBS := below_two (i := 10) (j := 0) (u := .string D) (v := .int .i64 4) hBb HR0.out
        have HRR := Lib.hid hR2
        have HBS := Lib.hid hBS
        obtain ⟨z0, z1, z2, z3, z4, z5, z6, z7, z8, z9, z10, z11⟩ := TokAt.zero hR
        obtain ⟨y0, y1, y2, y3, y4, y5, y6, y7, y8, y9, y10, y11⟩ := TokAt.frz hR
        clear hR hR2 hBS
        go_wp2_with fail
        obtain ⟨w3', hw3, h3', hb3, hbut⟩ := retW2 HRR.out HBS.out HR0.out (.int .i64 4) (.string ⟨#[]⟩) (.bool false) (.string ⟨#[]⟩) (.bool false) (.string ⟨#[]⟩) (.bool false) (.bool false) (.slice none 0 0) (.bool false) (.string D) (.int .i32 0)
        rw [hw3]
        obtain ⟨r0, r1, r2, r3, r4, r5, r6, r7, r8, r9, r10, r11⟩ := h3'.cells
        clear hw3
        refine bodyPost_ret (v := .tuple #[.agg #[.int .i64 4, .string ⟨#[]⟩, .bool false, .string ⟨#[]⟩, .bool false, .string ⟨#[]⟩, .bool false, .bool false, .slice none 0 0, .bool false, .string D, .int .i32 0], .string ⟨#[]⟩, .int .i64 N]) (by simp [results, Tryz.results27, go_sem, r0, r1, r2, r3, r4, r5, r6, r7, r8, r9, r10, r11]) rfl ?_
        rw [HF.out, HN.out, HD.out]
        exact mkR_com' w w3' hb3 (by omega)
      | true =>
        have HT2 := Lib.hid (tookE cb _ 82 s ⟨#[91, 67, 68, 65, 84, 65, 91]⟩ k 7 rfl HK.out (by have := HS.out; omega) w4 h4)
        clear h4
        go_wp2_with fail
        refine HT2.out.mono ?_
        rintro e w5 (⟨rfl, hp, hk7, h5, hB5⟩ | ⟨rfl, hp, h5, hB5⟩)
        · have hR5 := HR4.out.but hB5 HRC.out
          have hb5 := below_but HB4.out hB5 HLE.out
          have HB5 := Lib.hid hb5
          have HR5 := Lib.hid hR5
          have c1 := h5.cell1
          have hfin : declT (refL lg true) true (s.data.toList.drop k) = ({}, (utL [93, 93, 62] (s.data.toList.drop (k + 7))).1, 7 + (utL [93, 93, 62] (s.data.toList.drop (k + 7))).2) := by
            unfold declT declZ
            rw [HP.out, if_neg Bool.false_ne_true, if_neg HL.out, if_pos (by rw [Bool.true_and]; exact hp), List.drop_drop]
            rfl
          have HF := Lib.hid hfin
          have HCO := Lib.hid (fun W hm => cdata s ((k + 7 : Nat) : Int) m (by have := HS.out; omega) W hm)
          rw [clip_nat s (k + 7) hk7, tlS_nat s (k + 7) hk7] at HCO
          generalize (utL [93, 93, 62] (s.data.toList.drop (k + 7))).2 = n at HCO HF
          generalize (utL [93, 93, 62] (s.data.toList.drop (k + 7))).1 = d at HCO HF
          obtain ⟨D, hD⟩ : ∃ D, D = bl d := ⟨_, rfl⟩
          have HD := Lib.hid hD
          rw [← hD] at HCO
          obtain ⟨N, hN⟩ : ∃ N : Int, N = ((k + 7 + n : Nat) : Int) := ⟨_, rfl⟩
          rw [← hN, show ((k + 7 : Nat) : Int) = (k : Int) + 7 by omega] at HCO
          have HN := Lib.hid (show ((k + (7 + n) : Nat) : Int) = N by rw [hN]; omega)
          clear hp hk7 h5 hB5 hR5 hb5 hfin hD hN
          go_wp2_with fail
          refine (HCO.out w5 (carry HM.out HB5.out)).mono ?_
          rintro e wb ⟨rfl, hbb⟩
          have hR := HR5.out.below hbb
          have hBb := below_next HB5.out hbb
          have HRR := Lib.hid hR
          obtain ⟨z0, z1, z2, z3, z4, z5, z6, z7, z8, z9, z10, z11⟩ := TokAt.zero hR
          obtain ⟨y0, y1, y2, y3, y4, y5, y6, y7, y8, y9, y10, y11⟩ := TokAt.frz hR
          clear hR
          go_wp2_with fail
          obtain ⟨w3, hw3, h3, hb3, hbut⟩ := retW HRR.out hBb HR0.out (.int .i64 0) (.string ⟨#[]⟩) (.bool false) (.string ⟨#[]⟩) (.bool false) (.string ⟨#[]⟩) (.bool false) (.bool false) (.slice none 0 0) (.bool false) (.string ⟨#[]⟩) (.int .i32 0)
          rw [hw3]
          obtain ⟨r0, r1, r2, r3, r4, r5, r6, r7, r8, r9, r10, r11⟩ := h3.cells
          clear hw3
          refine bodyPost_ret (v := .tuple #[.agg #[.int .i64 0, .string ⟨#[]⟩, .bool false, .string ⟨#[]⟩, .bool false, .string ⟨#[]⟩, .bool false, .bool false, .slice none 0 0, .bool false, .string ⟨#[]⟩, .int .i32 0], .string D, .int .i64 N]) (by simp [results, Tryz.results27, go_sem, r0, r1, r2, r3, r4, r5, r6, r7, r8, r9, r10, r11]) rfl ?_
          rw [HF.out, HD.out, ← HN.out]
          exact mkR_chars w w3 hb3
        · have hR5 := HR4.out.but hB5 HRC.out
          have hb5 := below_but HB4.out hB5 HLE.out
          have HBX := Lib.hid hb5
          have HRX := Lib.hid hR5
          have hp' : sCdata.isPrefixOf (s.data.toList.drop k) = false := hp
          have HPC := Lib.hid hp'
          have c1 := h5.cell1
          clear hp hp' h5 hB5 hR5 hb5
          have hfin : declT (refL lg true) true (s.data.toList.drop k) = ({ kind := 4, data := nulL (utL [62] (s.data.toList.drop k)).1 }, [], (utL [62] (s.data.toList.drop k)).2) := by
            unfold declT declZ
            rw [HP.out, if_neg Bool.false_ne_true, if_neg HL.out, Bool.true_and, HPC.out, if_neg Bool.false_ne_true]
            rfl
          have HF := Lib.hid hfin
          have HCO := Lib.hid (fun W hm => bogusC s (k : Int) m (by have := HS.out; omega) W hm)
          rw [clip_nat s k HK.out, tlS_nat s k HK.out] at HCO
          generalize (utL [62] (s.data.toList.drop k)).2 = n at HCO HF
          generalize nulL (utL [62] (s.data.toList.drop k)).1 = d at HCO HF
          obtain ⟨D, hD⟩ : ∃ D, D = bl d := ⟨_, rfl⟩
          have HD := Lib.hid hD
          rw [← hD] at HCO
          obtain ⟨N, hN⟩ : ∃ N : Int, N = ((k + n : Nat) : Int) := ⟨_, rfl⟩
          have HN := Lib.hid hN
          rw [← hN] at HCO
          clear hfin hD hN
          go_wp2_with fail
          refine (HCO.out w5 (carry HM.out HBX.out)).mono ?_
          rintro e wb ⟨rfl, hbb⟩
          have hR := HRX.out.below hbb
          have hBb := below_next HBX.out hbb
          have hR2 : TokAt ((wb.setCell ⟨r, 10, none⟩ (.string D)).setCell ⟨r, 0, none⟩ (.int .i64 4)) r #[.int .i64 4, .string ⟨#[]⟩, .bool false, .string ⟨#[]⟩, .bool false, .string ⟨#[]⟩, .bool false, .bool false, .slice none 0 0, .bool false, .string D, .int .i32 0] := heap_set (heap_set hR 10 _) 0 _
          have hBS := below_two (i := 10) (j := 0) (u := .string D) (v := .int .i64 4) hBb HR0.out
          have HRR := Lib.hid hR2
          have HBS := Lib.hid hBS
          obtain ⟨z0, z1, z2, z3, z4, z5, z6, z7, z8, z9, z10, z11⟩ := TokAt.zero hR
          obtain ⟨y0, y1, y2, y3, y4, y5, y6, y7, y8, y9, y10, y11⟩ := TokAt.frz hR
          clear hR hR2 hBS
          go_wp2_with fail
          obtain ⟨w3', hw3, h3', hb3, hbut⟩ := retW2 HRR.out HBS.out HR0.out (.int .i64 4) (.string ⟨#[]⟩) (.bool false) (.string ⟨#[]⟩) (.bool false) (.string ⟨#[]⟩) (.bool false) (.bool false) (.slice none 0 0) (.bool false) (.string D) (.int .i32 0)
          rw [hw3]
          obtain ⟨r0, r1, r2, r3, r4, r5, r6, r7, r8, r9, r10, r11⟩ := h3'.cells
          clear hw3
          refine bodyPost_ret (v := .tuple #[.agg #[.int .i64 4, .string ⟨#[]⟩, .bool false, .string ⟨#[]⟩, .bool false, .string ⟨#[]⟩, .bool false, .bool false, .slice none 0 0, .bool false, .string D, .int .i32 0], .string ⟨#[]⟩, .int .i64 N]) (by simp [results, Tryz.results27, go_sem, r0, r1, r2, r3, r4, r5, r6, r7, r8, r9, r10, r11]) rfl ?_
          rw [HF.out, HN.out, HD.out]
          exact mkR_com' w w3' hb3 (by omega)
theorem q_let : (qOf fun r => letB r) = leU := rfl
theorem clos_tag {R : RefF} {t : List UInt8} (h : seesB (fun r => letB r) t = true) : closeT R t = ((tagT R true t).1, [], (tagT R true t).2.2) := by
  rw [sees_q] at h
  cases t with
  | nil => cases h
  | cons d r =>
    have h2 : leU d = true := h
    unfold closeT closeZ
    simp only
    rw [if_pos h2]
    show (_, _, _) = _
    rw [List.drop_zero, Nat.zero_add]
theorem clos_gt {R : RefF} {t : List UInt8} (h : seesB (fun r => letB r) t = false) (h2 : [62].isPrefixOf t = true) : closeT R t = ({}, [], 1) := by
  obtain ⟨r, rfl⟩ := List.isPrefixOf_iff_prefix.1 h2
  rw [sees_q] at h
  have h3 : leU 62 = false := h
  unfold closeT closeZ
  simp only [List.cons_append, List.nil_append]
  rw [h3, if_neg Bool.false_ne_true, if_pos trivial]
  rfl
theorem clos_bog {R : RefF} {t : List UInt8} (h : seesB (fun r => letB r) t = false) (h2 : [62].isPrefixOf t = false) (h3 : t ≠ []) : closeT R t = goT R t (bogZ t) := by
  rw [sees_q] at h
  cases t with
  | nil => exact absurd rfl h3
  | cons d r =>
    have h4 : leU d = false := h
    have h5 : ¬ d = 62 := by rintro rfl; simp [List.isPrefixOf] at h2
    unfold closeT closeZ
    simp only
    rw [h4, if_neg Bool.false_ne_true, if_neg h5]
theorem closingM (lg : List UInt8 → Nat × List UInt8) (HLG : Hid (LgOk lg)) (b : Nat) (s : ByteArray) (k : Nat) (hk : k ≤ s.size) (hs : s.size ≤ 1000000) (m : Int) (w : World) (hc : CtlW w) (hm : w.cell? ⟨1, 0, none⟩ = some (.int .i64 m)) (h : At w b #[.string s, .int .i64 k] 82 s k) :
    Calls Tryz.prog 93 #[.pointer (some ⟨b, 0, none⟩)] w (MkRb b k (closeT (refL lg true) (s.data.toList.drop k)) w) := by
  have hR0 : TokAt (w.alloc (.cells #[.int .i64 0, .string ⟨#[]⟩, .bool false, .string ⟨#[]⟩, .bool false, .string ⟨#[]⟩, .bool false, .bool false, .slice none 0 0, .bool false, .string ⟨#[]⟩, .int .i32 0] 27)) w.heap.size tok0 := tokAt_new w _
  have hB0 : Below w.heap.size w (w.alloc (.cells #[.int .i64 0, .string ⟨#[]⟩, .bool false, .string ⟨#[]⟩, .bool false, .string ⟨#[]⟩, .bool false, .bool false, .slice none 0 0, .bool false, .string ⟨#[]⟩, .int .i32 0] 27)) := below_alloc (Below.refl _ _) _
  have hat := h.below hB0
  have hrb : w.heap.size ≠ b := Nat.ne_of_gt h.lt
  have hbl0 := h.lt
  obtain ⟨r, hr⟩ : ∃ r, r = w.heap.size := ⟨_, rfl⟩
  obtain ⟨W, hW⟩ : ∃ W, w.alloc (.cells #[.int .i64 0, .string ⟨#[]⟩, .bool false, .string ⟨#[]⟩, .bool false, .string ⟨#[]⟩, .bool false, .bool false, .slice none 0 0, .bool false, .string ⟨#[]⟩, .int .i32 0] 27) = W := ⟨_, rfl⟩
  rw [hW] at hR0 hB0 hat
  rw [← hr] at hR0 hrb
  have HM := Lib.hid (carry hm hB0)
  have HCt := Lib.hid (hc.below hB0)
  have HRA := Lib.hid hR0
  have HB0 := Lib.hid hB0
  have HR0 := Lib.hid (show w.heap.size ≤ r by omega)
  have HRE := Lib.hid hr
  have HRB := Lib.hid hrb
  have HBLE := Lib.hid (show b < w.heap.size from hbl0)
  have HWE := Lib.hid hW
  have HK := Lib.hid hk
  have HS := Lib.hid hs
  have HSE := Lib.hid (seesE 92 (fun args w => enters_of Tryz.func92 (by kernel_rfl) rfl args w) (fun r => letB r) b _ 82 s k hk W (fun W x _ _ => isLetter x W) hat)
  have HAT := Lib.hid hat
  clear hm hc hk hs hR0 hB0 hat hW hr h hrb hbl0
  go_enter Tryz.func93, Tryz.ntmps93
  go_wp2_with fail
  rw [HWE.out, ← HRE.out]
  obtain ⟨q, hq⟩ : ∃ q, q = seesB (fun r => letB r) (s.data.toList.drop k) := ⟨_, rfl⟩
  rw [← hq] at HSE
  have HQ := Lib.hid hq
  clear hq
  refine HSE.out.mono ?_
  rintro e w1 ⟨rfl, hb1⟩
  have hR1 := HRA.out.below hb1
  have hB1 := below_next HB0.out hb1
  have hat1 := HAT.out.below hb1
  have HR1 := Lib.hid hR1
  have HB1 := Lib.hid hB1
  have HAT1 := Lib.hid hat1
  have hbw1 : Below W.heap.size W w1 := hb1
  clear hR1 hB1 hb1
  have c0 := hat1.cell0
  have c1 := hat1.cell1
  have cl := hat1.lt
  have HBW1 := Lib.hid hbw1
  clear hat1 hbw1
  have z0 : W.cell? ⟨r, 0, none⟩ = W.cell? ⟨r, 0, none⟩ := rfl
  clear z0
  cases q with
  | true =>
    have hcl := clos_tag (R := refL lg true) HQ.out.symm
    have hTag := fun W' hc hm => tagM lg HLG s (k : Int) true m HS.out W' hc hm
    rw [clip_nat s k HK.out, tlS_nat s k HK.out] at hTag
    generalize tagT (refL lg true) true (s.data.toList.drop k) = X at hTag hcl
    obtain ⟨T, TB, n⟩ := X
    unfold TagR at hTag
    obtain ⟨N, hN⟩ : ∃ N : Int, N = ((k + n : Nat) : Int) := ⟨_, rfl⟩
    simp only [← hN] at hTag
    have HTG : Hid (∀ W', Below w1.heap.size w1 W' → Calls Tryz.prog 23 #[.string s, .int .i64 k, .bool true] W' fun e w' => ∃ (k1 : Int) (n1 : ByteArray) (hn1 : Bool) (p1 : ByteArray) (hp1 : Bool) (y1 : ByteArray) (hy1 q1 : Bool) (A1 : Option Addr) (pn1 pc1 : Nat) (sc1 : Bool) (d1 : ByteArray) (r1 : Int),
        e = .returned (.tuple #[.agg #[.int .i64 k1, .string n1, .bool hn1, .string p1, .bool hp1, .string y1, .bool hy1, .bool q1, .slice A1 pn1 pc1, .bool sc1, .string d1, .int .i32 r1], .bool TB, .int .i64 N]) ∧ TokRow w' (.agg #[.int .i64 k1, .string n1, .bool hn1, .string p1, .bool hp1, .string y1, .bool hy1, .bool q1, .slice A1 pn1 pc1, .bool sc1, .string d1, .int .i32 r1]) T ∧ TokAt w' r tok0 ∧ Below w1.heap.size w1 w') := Lib.hid (by
      intro W' hW
      refine (hTag W' (HCt.out.below (below_next HBW1.out hW)) (carry HM.out (below_next HBW1.out hW))).mono ?_
      rintro e w' ⟨v, rfl, ht, hb⟩
      obtain ⟨k1, n1, hn1, p1, hp1, y1, hy1, q1, A1, pn1, pc1, sc1, d1, r1, rfl, -⟩ := ht.form
      exact ⟨_, _, _, _, _, _, _, _, _, _, _, _, _, _, rfl, ht, (HR1.out.below hW).below hb, below_next hW hb⟩)
    have HN := Lib.hid hN
    have HCL := Lib.hid hcl
    clear hcl hTag hN
    go_wp2_with fail
    go_region_with (go_at_call 23; refine (HTG.out _ (by first | exact Below.drew (Below.refl _ _) | exact Below.refl _ _)).mono ?_; rintro e wx ⟨k1, n1, hn1, p1, hp1, y1, hy1, q1, A1, pn1, pc1, sc1, d1, r1, rfl, ht, hrx, hbx⟩; have HTK := Lib.hid ht; have HRX := Lib.hid hrx; have HBX := Lib.hid hbx; obtain ⟨z0, z1, z2, z3, z4, z5, z6, z7, z8, z9, z10, z11⟩ := TokAt.zero hrx; obtain ⟨y0, y1', y2, y3, y4, y5, y6, y7, y8, y9, y10, y11⟩ := TokAt.frz hrx; clear ht hrx hbx)
    all_goals
      obtain ⟨w6, hw6, h6, hb6, b6⟩ := retW HRX.out (below_next HB1.out HBX.out) HR0.out (.int .i64 k1) (.string n1) (.bool hn1) (.string p1) (.bool hp1) (.string y1) (.bool hy1) (.bool q1) (.slice A1 pn1 pc1) (.bool sc1) (.string d1) (.int .i32 r1)
      rw [hw6]
      have H6 := Lib.hid (show w6.heap[r]? = some (.cells #[.int .i64 k1, .string n1, .bool hn1, .string p1, .bool hp1, .string y1, .bool hy1, .bool q1, .slice A1 pn1 pc1, .bool sc1, .string d1, .int .i32 r1] 27 (0, 0)) from h6)
      have B6 := Lib.hid b6
      have HB6 := Lib.hid hb6
      clear hw6 h6 b6 hb6 z0 z1 z2 z3 z4 z5 z6 z7 z8 z9 z10 z11 y0 y1' y2 y3 y4 y5 y6 y7 y8 y9 y10 y11
      go_simp
      repeat (first
        | (refine wpList_load_row (by rfl) 27 _ rfl r rfl 27 _ (0, 0) _ H6.out Tryz.underlying27 rfl (by kernel_rfl) ?_)
        | (refine wpList_store_tok (by rfl) 27 _ _ rfl r #[.int .i64 k1, .string n1, .bool hn1, .string p1, .bool hp1, .string y1, .bool hy1, .bool q1, .slice A1 pn1 pc1, .bool sc1, .string d1, .int .i32 r1] rfl rfl 27 _ H6.out (by kernel_rfl) rfl (oc12 _ _ _ _ _ _ _ _ _ _ _ _ _ _) ?_; intro w7 h7 b7; have H7 := Lib.hid h7; have B7 := Lib.hid b7; clear h7 b7)
        | go_values
        | go_skip
        | go_guarded
        | go_step
        | go_upon
        | go_back)
      have hb7 := below_but HB6.out B7.out HR0.out
      obtain ⟨e0, e1, e2, e3, e4, e5, e6, e7, e8, e9, e10, e11⟩ := TokAt.cells (show TokAt w7 r #[.int .i64 k1, .string n1, .bool hn1, .string p1, .bool hp1, .string y1, .bool hy1, .bool q1, .slice A1 pn1 pc1, .bool sc1, .string d1, .int .i32 r1] from H7.out)
      refine bodyPost_ret (v := .tuple #[.agg #[.int .i64 k1, .string n1, .bool hn1, .string p1, .bool hp1, .string y1, .bool hy1, .bool q1, .slice A1 pn1 pc1, .bool sc1, .string d1, .int .i32 r1], .string ⟨#[]⟩, .int .i64 N]) (by simp [results, Tryz.results93, go_sem, e0, e1, e2, e3, e4, e5, e6, e7, e8, e9, e10, e11]) rfl ?_
      rw [HCL.out, HN.out]
      exact ⟨_, rfl, tokRow_but (tokRow_but HTK.out HRX.out rfl B6.out) H6.out rfl B7.out, But.of_below hb7⟩
  | false =>
    have HTO := Lib.hid (tookE b _ 82 s ⟨#[62]⟩ k 1 rfl HK.out (by have := HS.out; omega) w1 HAT1.out)
    clear c0 c1
    go_wp2_with fail
    refine HTO.out.mono ?_
    rintro e w2 (⟨rfl, hp, hk1, h2, hB2⟩ | ⟨rfl, hp, h2, hB2⟩)
    · have hR := HR1.out.but hB2 HRB.out
      have HB2 := Lib.hid ((But.of_below (b := b) HB1.out).trans hB2)
      have HCL := Lib.hid (clos_gt (R := refL lg true) HQ.out.symm hp)
      have c1 := h2.cell1
      have HRR := Lib.hid hR
      obtain ⟨z0, z1, z2, z3, z4, z5, z6, z7, z8, z9, z10, z11⟩ := TokAt.zero hR
      obtain ⟨y0, y1, y2, y3, y4, y5, y6, y7, y8, y9, y10, y11⟩ := TokAt.frz hR
      clear hp hk1 h2 hB2 hR
      have hne := HRB.out
      have hne2 := HRB.out.symm
      go_wp2_with fail
      go_region
      all_goals
        go_wp2_with fail
        obtain ⟨w3, hw3, h3, b3⟩ := retWb HRR.out (.int .i64 0) (.string ⟨#[]⟩) (.bool false) (.string ⟨#[]⟩) (.bool false) (.string ⟨#[]⟩) (.bool false) (.bool false) (.slice none 0 0) (.bool false) (.string ⟨#[]⟩) (.int .i32 0)
        rw [hw3]
        obtain ⟨e0, e1, e2, e3, e4, e5, e6, e7, e8, e9, e10, e11⟩ := TokAt.cells (show TokAt w3.drew r #[.int .i64 0, .string ⟨#[]⟩, .bool false, .string ⟨#[]⟩, .bool false, .string ⟨#[]⟩, .bool false, .bool false, .slice none 0 0, .bool false, .string ⟨#[]⟩, .int .i32 0] from h3)
        clear hw3
        refine bodyPost_ret (v := .tuple #[.agg #[.int .i64 0, .string ⟨#[]⟩, .bool false, .string ⟨#[]⟩, .bool false, .string ⟨#[]⟩, .bool false, .bool false, .slice none 0 0, .bool false, .string ⟨#[]⟩, .int .i32 0], .string ⟨#[]⟩, .int .i64 ((k + 1 : Nat) : Int)]) (by simp [results, Tryz.results93, go_sem, e0, e1, e2, e3, e4, e5, e6, e7, e8, e9, e10, e11]) rfl ?_
        rw [HCL.out]
        exact ⟨_, rfl, tokRow_plain _ {} rfl, but_drewN (but_but HB2.out b3 HR0.out)⟩
    · have HEN := Lib.hid (endedE b _ 82 s k HK.out (decide (k = s.size)) rfl w2 h2)
      have HR2 := Lib.hid (HR1.out.but hB2 HRB.out)
      have HB2 := Lib.hid ((But.of_below (b := b) HB1.out).trans hB2)
      have HBW2 := Lib.hid ((But.of_below (b := b) HBW1.out).trans hB2)
      have HP := Lib.hid hp
      clear h2 hB2 hp
      by_cases hend : k = s.size
      · rw [decide_eq_true hend] at HEN
        have hcl : closeT (refL lg true) (s.data.toList.drop k) = ({}, [60, 47], 0) := by
          rw [drop_end s k (by omega)]
          rfl
        have HCL := Lib.hid hcl
        clear hcl hend
        go_wp2_with fail
        refine HEN.out.mono ?_
        rintro e w3 ⟨rfl, hb3, h3⟩
        have hR := HR2.out.below hb3
        have HB3 := Lib.hid (HB2.out.trans (But.of_below hb3))
        have c1 := h3.cell1
        have HRR := Lib.hid hR
        obtain ⟨z0, z1, z2, z3, z4, z5, z6, z7, z8, z9, z10, z11⟩ := TokAt.zero hR
        obtain ⟨y0, y1, y2, y3, y4, y5, y6, y7, y8, y9, y10, y11⟩ := TokAt.frz hR
        have hne := HRB.out
        have hne2 := HRB.out.symm
        clear hb3 h3 hR
        go_wp2_with fail
        go_region
        all_goals
          go_wp2_with fail
          obtain ⟨w4, hw4, h4, b4⟩ := retWb HRR.out (.int .i64 0) (.string ⟨#[]⟩) (.bool false) (.string ⟨#[]⟩) (.bool false) (.string ⟨#[]⟩) (.bool false) (.bool false) (.slice none 0 0) (.bool false) (.string ⟨#[]⟩) (.int .i32 0)
          rw [hw4]
          obtain ⟨e0, e1, e2, e3, e4, e5, e6, e7, e8, e9, e10, e11⟩ := TokAt.cells (show TokAt w4.drew r #[.int .i64 0, .string ⟨#[]⟩, .bool false, .string ⟨#[]⟩, .bool false, .string ⟨#[]⟩, .bool false, .bool false, .slice none 0 0, .bool false, .string ⟨#[]⟩, .int .i32 0] from h4)
          clear hw4
          refine bodyPost_ret (v := .tuple #[.agg #[.int .i64 0, .string ⟨#[]⟩, .bool false, .string ⟨#[]⟩, .bool false, .string ⟨#[]⟩, .bool false, .bool false, .slice none 0 0, .bool false, .string ⟨#[]⟩, .int .i32 0], .string ⟨#[60, 47]⟩, .int .i64 (k : Int)]) (by simp [results, Tryz.results93, go_sem, e0, e1, e2, e3, e4, e5, e6, e7, e8, e9, e10, e11]) rfl ?_
          rw [HCL.out]
          exact ⟨_, rfl, tokRow_plain _ {} rfl, but_drewN (but_but HB3.out b4 HR0.out)⟩
      · rw [decide_eq_false hend] at HEN
        have hcl := clos_bog (R := refL lg true) HQ.out.symm HP.out (by
          intro e
          have h := congrArg List.length e
          rw [List.length_drop, size_list] at h
          have := HK.out
          simp at h
          omega)
        have HCL := Lib.hid hcl
        clear hcl hend
        go_wp2_with fail
        refine HEN.out.mono ?_
        rintro e w3 ⟨rfl, hb3, h3⟩
        have hbo := bogusM b s k HK.out HS.out m w3 (ml_but HM.out HAT.out (HBW2.out.trans (But.of_below hb3))) (refL lg true) h3
        have HR3 := Lib.hid (HR2.out.below hb3)
        have HB3 := Lib.hid (HB2.out.trans (But.of_below hb3))
        have hcl2 := HCL.out
        generalize goT (refL lg true) (s.data.toList.drop k) (bogZ (s.data.toList.drop k)) = X at hbo hcl2
        have HCL2 := Lib.hid hcl2
        obtain ⟨T, C0, n⟩ := X
        unfold MkR at hbo
        obtain ⟨N, hN⟩ : ∃ N : Int, N = ((k + n : Nat) : Int) := ⟨_, rfl⟩
        obtain ⟨C, hC⟩ : ∃ C, C = bl C0 := ⟨_, rfl⟩
        simp only [← hN, ← hC] at hbo
        have HBO := Lib.hid hbo
        have HN := Lib.hid hN
        have HC := Lib.hid hC
        clear hbo hcl2 hN hC hb3 h3
        go_wp2_with fail
        refine HBO.out.mono ?_
        rintro e w4 ⟨v, rfl, ht, hb4⟩
        obtain ⟨k1, n1, hn1, p1, hp1, y1, hy1, q1, A1, pn1, pc1, sc1, d1, r1, rfl, -⟩ := ht.form
        have HRR := Lib.hid (show w4.heap[r]? = some (.cells #[.int .i64 0, .string ⟨#[]⟩, .bool false, .string ⟨#[]⟩, .bool false, .string ⟨#[]⟩, .bool false, .bool false, .slice none 0 0, .bool false, .string ⟨#[]⟩, .int .i32 0] 27 (0, 0)) from HR3.out.below hb4)
        have HB4 := Lib.hid (HB3.out.trans (But.of_below hb4))
        have HTK := Lib.hid ht
        clear ht hb4
        go_simp
        repeat (first
          | (refine wpList_store_tok (by rfl) 27 _ _ rfl r #[.int .i64 k1, .string n1, .bool hn1, .string p1, .bool hp1, .string y1, .bool hy1, .bool q1, .slice A1 pn1 pc1, .bool sc1, .string d1, .int .i32 r1] rfl rfl 27 _ HRR.out (by kernel_rfl) rfl (oc12 _ _ _ _ _ _ _ _ _ _ _ _ _ _) ?_; intro w6 h6 b6; have H6 := Lib.hid h6; have B6 := Lib.hid b6; clear h6 b6)
          | go_values
          | go_skip
          | go_guarded
          | go_step
          | go_upon
          | go_back)
        obtain ⟨e0, e1, e2, e3, e4, e5, e6, e7, e8, e9, e10, e11⟩ := TokAt.cells (show TokAt w6 r #[.int .i64 k1, .string n1, .bool hn1, .string p1, .bool hp1, .string y1, .bool hy1, .bool q1, .slice A1 pn1 pc1, .bool sc1, .string d1, .int .i32 r1] from H6.out)
        refine bodyPost_ret (v := .tuple #[.agg #[.int .i64 k1, .string n1, .bool hn1, .string p1, .bool hp1, .string y1, .bool hy1, .bool q1, .slice A1 pn1 pc1, .bool sc1, .string d1, .int .i32 r1], .string C, .int .i64 N]) (by simp [results, Tryz.results93, go_sem, e0, e1, e2, e3, e4, e5, e6, e7, e8, e9, e10, e11]) rfl ?_
        rw [HCL2.out, HN.out, HC.out]
        exact ⟨_, rfl, tokRow_but HTK.out HRR.out rfl B6.out, but_but HB4.out B6.out HR0.out⟩
theorem pre_cons {c : UInt8} {t : List UInt8} (h : [c].isPrefixOf t = true) : t = c :: t.drop 1 := by
  obtain ⟨r, rfl⟩ := List.isPrefixOf_iff_prefix.1 h
  rfl
theorem pre_no {c d : UInt8} {r : List UInt8} (h : [c].isPrefixOf (d :: r) = false) : ¬ d = c := by
  rintro rfl
  simp [List.isPrefixOf] at h
theorem mk_bang {R : RefF} {cd : Bool} {t : List UInt8} (h : [33].isPrefixOf t = true) : mkT R cd t = shT 1 (declT R cd (t.drop 1)) := by
  conv => lhs; rw [pre_cons h]
  rw [mkT_cons, if_pos rfl]
theorem mk_let {R : RefF} {cd : Bool} {t : List UInt8} (h : [33].isPrefixOf t = false) (h2 : seesB (fun r => letB r) t = true) : mkT R cd t = ((tagT R false t).1, [], (tagT R false t).2.2) := by
  rw [sees_q] at h2
  cases t with
  | nil => cases h2
  | cons d r =>
    have h3 : leU d = true := h2
    rw [mkT_cons, if_neg (pre_no h), if_pos h3]
    show (_, _, _) = _
    rw [List.drop_zero, Nat.zero_add]
theorem mk_slash {R : RefF} {cd : Bool} {t : List UInt8} (h : [33].isPrefixOf t = false) (h2 : seesB (fun r => letB r) t = false) (h3 : [47].isPrefixOf t = true) : mkT R cd t = shT 1 (closeT R (t.drop 1)) := by
  have e := pre_cons h3
  rw [e] at h h2
  rw [sees_q] at h2
  have h4 : leU 47 = false := h2
  conv => lhs; rw [e]
  rw [mkT_cons, if_neg (pre_no h), h4, if_neg Bool.false_ne_true, if_pos rfl]
theorem q_que : (qOf fun r => decide ((r : Int) = 63)) = fun b => b == 63 := q_one 63 63 rfl
theorem mk_q {R : RefF} {cd : Bool} {t : List UInt8} (h : [33].isPrefixOf t = false) (h2 : seesB (fun r => letB r) t = false) (h3 : [47].isPrefixOf t = false) (h4 : seesB (fun r => decide ((r : Int) = 63)) t = true) : mkT R cd t = goT R t (bogZ t) := by
  rw [sees_q] at h2 h4
  rw [q_que] at h4
  cases t with
  | nil => cases h4
  | cons d r =>
    have h5 : leU d = false := h2
    have h6 : d = 63 := by simpa using h4
    rw [mkT_cons, if_neg (pre_no h), h5, if_neg Bool.false_ne_true, if_neg (pre_no h3), if_pos h6]
theorem mk_else {R : RefF} {cd : Bool} {t : List UInt8} (h : [33].isPrefixOf t = false) (h2 : seesB (fun r => letB r) t = false) (h3 : [47].isPrefixOf t = false) (h4 : seesB (fun r => decide ((r : Int) = 63)) t = false) : mkT R cd t = ({}, [60], 0) := by
  rw [sees_q] at h2 h4
  rw [q_que] at h4
  cases t with
  | nil => rfl
  | cons d r =>
    have h5 : leU d = false := h2
    have h6 : ¬ d = 63 := by simpa using h4
    rw [mkT_cons, if_neg (pre_no h), h5, if_neg Bool.false_ne_true, if_neg (pre_no h3), if_neg h6]

theorem markupM (lg : List UInt8 → Nat × List UInt8) (HLG : Hid (LgOk lg)) (s : ByteArray) (a : Int) (cd : Bool) (m : Int) (hs : s.size ≤ 1000000) (w : World) (hc : CtlW w) (hm : w.cell? ⟨1, 0, none⟩ = some (.int .i64 m)) :
    Calls Tryz.prog 25 #[.string s, .int .i64 a, .bool cd] w (MkR (clip s a) (mkT (refL lg true) cd (tlS s a)) w) := by
  have HC := Lib.hid (fun W => cursorAt s a (by unfold maxLen; omega) W)
  have hk := clip_le s a
  unfold tlS
  generalize clip s a = k at HC hk ⊢
  have hR0 : TokAt (w.alloc (.cells #[.int .i64 0, .string ⟨#[]⟩, .bool false, .string ⟨#[]⟩, .bool false, .string ⟨#[]⟩, .bool false, .bool false, .slice none 0 0, .bool false, .string ⟨#[]⟩, .int .i32 0] 27)) w.heap.size tok0 := tokAt_new w _
  have hB0 : Below w.heap.size w (w.alloc (.cells #[.int .i64 0, .string ⟨#[]⟩, .bool false, .string ⟨#[]⟩, .bool false, .string ⟨#[]⟩, .bool false, .bool false, .slice none 0 0, .bool false, .string ⟨#[]⟩, .int .i32 0] 27)) := below_alloc (Below.refl _ _) _
  obtain ⟨r, hr⟩ : ∃ r, r = w.heap.size := ⟨_, rfl⟩
  obtain ⟨W, hW⟩ : ∃ W, w.alloc (.cells #[.int .i64 0, .string ⟨#[]⟩, .bool false, .string ⟨#[]⟩, .bool false, .string ⟨#[]⟩, .bool false, .bool false, .slice none 0 0, .bool false, .string ⟨#[]⟩, .int .i32 0] 27) = W := ⟨_, rfl⟩
  rw [hW] at hR0 hB0
  rw [← hr] at hR0
  have HM := Lib.hid hm
  have HCt := Lib.hid hc
  have HRA := Lib.hid hR0
  have HB0 := Lib.hid hB0
  have HR0 := Lib.hid (show w.heap.size ≤ r by omega)
  have HRE := Lib.hid hr
  have HWE := Lib.hid hW
  have HK := Lib.hid hk
  have HS := Lib.hid hs
  clear hm hc hk hs hR0 hB0 hW hr
  go_enter Tryz.func25, Tryz.ntmps25
  go_wp2_with fail
  rw [HWE.out, ← HRE.out]
  refine (HC.out W).mono ?_
  rintro e w1 ⟨rfl, hb1⟩
  have hR1 := HRA.out.below hb1
  have hB1 := below_next HB0.out hb1
  go_wp2_with fail
  have hat : At (w1.alloc (.cells #[.string s, .int .i64 k] 82)) w1.heap.size #[.string s, .int .i64 k] 82 s k := at_new rfl
  have hr2 := hR1.below (below_alloc (Below.refl w1.heap.size w1) (.cells #[.string s, .int .i64 k] 82))
  have hB2 : Below w.heap.size w (w1.alloc (.cells #[.string s, .int .i64 k] 82)) := below_alloc hB1 _
  have hrc : r ≠ w1.heap.size := Nat.ne_of_lt hR1.lt
  have hle : w.heap.size ≤ w1.heap.size := hB1.size
  generalize w1.alloc (.cells #[.string s, .int .i64 k] 82) = w2 at hat hr2 hB2 ⊢
  generalize w1.heap.size = cb at hat hrc hle ⊢
  have HT := Lib.hid (tookE cb _ 82 s ⟨#[33]⟩ k 1 rfl HK.out (by have := HS.out; omega) w2 hat)
  have HR2 := Lib.hid hr2
  have HB2 := Lib.hid hB2
  have HRC := Lib.hid hrc
  have HLE := Lib.hid hle
  clear hat hr2 hB2 hrc hle hR1 hB1 hb1
  refine HT.out.mono ?_
  rintro e w3 (⟨rfl, hp, hk1, h3, hB3⟩ | ⟨rfl, hp, h3, hB3⟩)
  · have hR3 := HR2.out.but hB3 HRC.out
    have hb3 := below_but HB2.out hB3 HLE.out
    have HB3 := Lib.hid hb3
    have HR3 := Lib.hid hR3
    have c1 := h3.cell1
    have hk1' : k + 1 ≤ s.size := hk1
    have hfin := mk_bang (R := refL lg true) (cd := cd) hp
    rw [List.drop_drop] at hfin
    have hD := fun W hm => declM lg s ((k + 1 : Nat) : Int) cd m HS.out W hm
    rw [clip_nat s (k + 1) hk1', tlS_nat s (k + 1) hk1', show ((k + 1 : Nat) : Int) = (k : Int) + 1 by omega] at hD
    generalize declT (refL lg true) cd (s.data.toList.drop (k + 1)) = X at hD hfin
    obtain ⟨T, C0, n⟩ := X
    unfold MkR at hD
    obtain ⟨N, hN⟩ : ∃ N : Int, N = ((k + 1 + n : Nat) : Int) := ⟨_, rfl⟩
    obtain ⟨C, hC⟩ : ∃ C, C = bl C0 := ⟨_, rfl⟩
    simp only [← hN, ← hC] at hD
    have HN := Lib.hid (show ((k + (1 + n) : Nat) : Int) = N by rw [hN]; omega)
    have HCC := Lib.hid hC
    have HF := Lib.hid hfin
    have HD := Lib.hid hD
    clear hp hk1 hk1' h3 hB3 hR3 hb3 hfin hD hN hC
    go_wp2_with fail
    refine (HD.out w3 (carry HM.out HB3.out)).mono ?_
    rintro e w5 ⟨v, rfl, ht, hb5⟩
    obtain ⟨k1, n1, hn1, p1, hp1, y1, hy1, q1, A1, pn1, pc1, sc1, d1, r1, rfl, -⟩ := ht.form
    have hR := HR3.out.below hb5
    have HB5 := Lib.hid (below_next HB3.out hb5)
    have HTK := Lib.hid ht
    clear ht hb5
    have HRR := Lib.hid (show w5.heap[r]? = some (.cells #[.int .i64 0, .string ⟨#[]⟩, .bool false, .string ⟨#[]⟩, .bool false, .string ⟨#[]⟩, .bool false, .bool false, .slice none 0 0, .bool false, .string ⟨#[]⟩, .int .i32 0] 27 (0, 0)) from hR)
    clear hR
    go_simp
    repeat (first
      | (refine wpList_store_tok (by rfl) 27 _ _ rfl r #[.int .i64 k1, .string n1, .bool hn1, .string p1, .bool hp1, .string y1, .bool hy1, .bool q1, .slice A1 pn1 pc1, .bool sc1, .string d1, .int .i32 r1] rfl rfl 27 _ HRR.out (by kernel_rfl) rfl (oc12 _ _ _ _ _ _ _ _ _ _ _ _ _ _) ?_; intro w6 h6 b6; have H6 := Lib.hid h6; have B6 := Lib.hid b6; clear h6 b6)
      | go_values
      | go_skip
      | go_guarded
      | go_step
      | go_upon
      | go_back)
    have hb7 := below_but HB5.out B6.out HR0.out
    obtain ⟨e0, e1, e2, e3, e4, e5, e6, e7, e8, e9, e10, e11⟩ := TokAt.cells (show TokAt w6 r #[.int .i64 k1, .string n1, .bool hn1, .string p1, .bool hp1, .string y1, .bool hy1, .bool q1, .slice A1 pn1 pc1, .bool sc1, .string d1, .int .i32 r1] from H6.out)
    refine bodyPost_ret (v := .tuple #[.agg #[.int .i64 k1, .string n1, .bool hn1, .string p1, .bool hp1, .string y1, .bool hy1, .bool q1, .slice A1 pn1 pc1, .bool sc1, .string d1, .int .i32 r1], .string C, .int .i64 N]) (by simp [results, Tryz.results25, go_sem, e0, e1, e2, e3, e4, e5, e6, e7, e8, e9, e10, e11]) rfl ?_
    rw [HF.out, ← HN.out, HCC.out]
    show MkR _ (T, C0, 1 + n) _ _ _
    exact ⟨_, rfl, tokRow_but HTK.out HRR.out rfl B6.out, hb7⟩
  · have hR3 := HR2.out.but hB3 HRC.out
    have hb3 := below_but HB2.out hB3 HLE.out
    have HB3 := Lib.hid hb3
    have HR3 := Lib.hid hR3
    have HP := Lib.hid hp
    have HSE := Lib.hid (seesE 92 (fun args w => enters_of Tryz.func92 (by kernel_rfl) rfl args w) (fun r => letB r) cb _ 82 s k HK.out w3 (fun W x _ _ => isLetter x W) h3)
    obtain ⟨q, hq⟩ : ∃ q, q = seesB (fun r => letB r) (s.data.toList.drop k) := ⟨_, rfl⟩
    rw [← hq] at HSE
    have HQ := Lib.hid hq
    have H3 := Lib.hid h3
    clear hq hp h3 hB3 hR3 hb3
    go_wp2_with fail
    refine HSE.out.mono ?_
    rintro e w4 ⟨rfl, hb4⟩
    have hR4 := HR3.out.below hb4
    have hB4 := below_next HB3.out hb4
    have h4 := H3.out.below hb4
    have HB4 := Lib.hid hB4
    have HR4 := Lib.hid hR4
    have H4 := Lib.hid h4
    clear hb4 hR4 hB4 h4
    cases q with
    | true =>
      have c1 := H4.out.cell1
      have hfin := mk_let (R := refL lg true) (cd := cd) HP.out HQ.out.symm
      have hD := fun W hc hm => tagM lg HLG s (k : Int) false m HS.out W hc hm
      rw [clip_nat s k HK.out, tlS_nat s k HK.out] at hD
      generalize tagT (refL lg true) false (s.data.toList.drop k) = X at hD hfin
      obtain ⟨T, TB, n⟩ := X
      unfold TagR at hD
      obtain ⟨N, hN⟩ : ∃ N : Int, N = ((k + n : Nat) : Int) := ⟨_, rfl⟩
      simp only [← hN] at hD
      have HN := Lib.hid (show ((k + n : Nat) : Int) = N from hN.symm)
      have HF := Lib.hid hfin
      have HD := Lib.hid hD
      clear hfin hD hN
      go_wp2_with fail
      refine (HD.out w4 (HCt.out.below HB4.out) (carry HM.out HB4.out)).mono ?_
      rintro e w5 ⟨v, rfl, ht, hb5⟩
      obtain ⟨k1, n1, hn1, p1, hp1, y1, hy1, q1, A1, pn1, pc1, sc1, d1, r1, rfl, -⟩ := ht.form
      have hR := HR4.out.below hb5
      have HB5 := Lib.hid (below_next HB4.out hb5)
      have HTK := Lib.hid ht
      clear ht hb5
      have HRR := Lib.hid (show w5.heap[r]? = some (.cells #[.int .i64 0, .string ⟨#[]⟩, .bool false, .string ⟨#[]⟩, .bool false, .string ⟨#[]⟩, .bool false, .bool false, .slice none 0 0, .bool false, .string ⟨#[]⟩, .int .i32 0] 27 (0, 0)) from hR)
      clear hR
      go_simp
      repeat (first
        | (refine wpList_store_tok (by rfl) 27 _ _ rfl r #[.int .i64 k1, .string n1, .bool hn1, .string p1, .bool hp1, .string y1, .bool hy1, .bool q1, .slice A1 pn1 pc1, .bool sc1, .string d1, .int .i32 r1] rfl rfl 27 _ HRR.out (by kernel_rfl) rfl (oc12 _ _ _ _ _ _ _ _ _ _ _ _ _ _) ?_; intro w6 h6 b6; have H6 := Lib.hid h6; have B6 := Lib.hid b6; clear h6 b6)
        | (refine wpList_load_row (by rfl) 27 _ rfl r rfl 27 _ (0, 0) _ H6.out Tryz.underlying27 rfl (by kernel_rfl) ?_)
        | (refine wpList_store_tok (by rfl) 27 _ _ rfl r #[.int .i64 k1, .string n1, .bool hn1, .string p1, .bool hp1, .string y1, .bool hy1, .bool q1, .slice A1 pn1 pc1, .bool sc1, .string d1, .int .i32 r1] rfl rfl 27 _ H6.out (by kernel_rfl) rfl (oc12 _ _ _ _ _ _ _ _ _ _ _ _ _ _) ?_; intro w7 h7 b7; have H7 := Lib.hid h7; have B7 := Lib.hid b7; clear h7 b7)
        | go_values
        | go_skip
        | go_guarded
        | go_step
        | go_upon
        | go_back)
      have hb7 := below_but (below_but HB5.out B6.out HR0.out) B7.out HR0.out
      obtain ⟨e0, e1, e2, e3, e4, e5, e6, e7, e8, e9, e10, e11⟩ := TokAt.cells (show TokAt w7 r #[.int .i64 k1, .string n1, .bool hn1, .string p1, .bool hp1, .string y1, .bool hy1, .bool q1, .slice A1 pn1 pc1, .bool sc1, .string d1, .int .i32 r1] from H7.out)
      refine bodyPost_ret (v := .tuple #[.agg #[.int .i64 k1, .string n1, .bool hn1, .string p1, .bool hp1, .string y1, .bool hy1, .bool q1, .slice A1 pn1 pc1, .bool sc1, .string d1, .int .i32 r1], .string ⟨#[]⟩, .int .i64 N]) (by simp [results, Tryz.results25, go_sem, e0, e1, e2, e3, e4, e5, e6, e7, e8, e9, e10, e11]) rfl ?_
      rw [HF.out, ← HN.out]
      exact ⟨_, rfl, tokRow_but (tokRow_but HTK.out HRR.out rfl B6.out) H6.out rfl B7.out, hb7⟩
    | false =>
      have HT4 := Lib.hid (tookE cb _ 82 s ⟨#[47]⟩ k 1 rfl HK.out (by have := HS.out; omega) w4 H4.out)
      go_wp2_with fail
      refine HT4.out.mono ?_
      rintro e w5 (⟨rfl, hp, hk1, h5, hB5⟩ | ⟨rfl, hp, h5, hB5⟩)
      · have HR5 := Lib.hid (HR4.out.but hB5 HRC.out)
        have HB5 := Lib.hid (below_but HB4.out hB5 HLE.out)
        have hfin := mk_slash (R := refL lg true) (cd := cd) HP.out HQ.out.symm hp
        rw [List.drop_drop] at hfin
        have hD := closingM lg HLG cb s (k + 1) hk1 HS.out m w5 (HCt.out.below HB5.out) (carry HM.out HB5.out) h5
        generalize closeT (refL lg true) (s.data.toList.drop (k + 1)) = X at hD hfin
        obtain ⟨T, C0, n⟩ := X
        unfold MkRb at hD
        obtain ⟨N, hN⟩ : ∃ N : Int, N = ((k + 1 + n : Nat) : Int) := ⟨_, rfl⟩
        obtain ⟨C, hC⟩ : ∃ C, C = bl C0 := ⟨_, rfl⟩
        simp only [← hN, ← hC] at hD
        have HN := Lib.hid (show ((k + (1 + n) : Nat) : Int) = N by rw [hN]; omega)
        have HCC := Lib.hid hC
        have HF := Lib.hid hfin
        have HD := Lib.hid hD
        clear hp hk1 h5 hB5 hfin hD hN hC
        go_wp2_with fail
        refine HD.out.mono ?_
        rintro e w6' ⟨v, rfl, ht, hb6⟩
        obtain ⟨k1, n1, hn1, p1, hp1, y1, hy1, q1, A1, pn1, pc1, sc1, d1, r1, rfl, -⟩ := ht.form
        have hR := HR5.out.but hb6 HRC.out
        have HB6' := Lib.hid (below_but HB5.out hb6 HLE.out)
        have HTK := Lib.hid ht
        clear ht hb6
        have HRR := Lib.hid (show w6'.heap[r]? = some (.cells #[.int .i64 0, .string ⟨#[]⟩, .bool false, .string ⟨#[]⟩, .bool false, .string ⟨#[]⟩, .bool false, .bool false, .slice none 0 0, .bool false, .string ⟨#[]⟩, .int .i32 0] 27 (0, 0)) from hR)
        clear hR
        go_simp
        repeat (first
          | (refine wpList_store_tok (by rfl) 27 _ _ rfl r #[.int .i64 k1, .string n1, .bool hn1, .string p1, .bool hp1, .string y1, .bool hy1, .bool q1, .slice A1 pn1 pc1, .bool sc1, .string d1, .int .i32 r1] rfl rfl 27 _ HRR.out (by kernel_rfl) rfl (oc12 _ _ _ _ _ _ _ _ _ _ _ _ _ _) ?_; intro w6 h6 b6; have H6 := Lib.hid h6; have B6 := Lib.hid b6; clear h6 b6)
          | go_values
          | go_skip
          | go_guarded
          | go_step
          | go_upon
          | go_back)
        have hb7 := below_but HB6'.out B6.out HR0.out
        obtain ⟨e0, e1, e2, e3, e4, e5, e6, e7, e8, e9, e10, e11⟩ := TokAt.cells (show TokAt w6 r #[.int .i64 k1, .string n1, .bool hn1, .string p1, .bool hp1, .string y1, .bool hy1, .bool q1, .slice A1 pn1 pc1, .bool sc1, .string d1, .int .i32 r1] from H6.out)
        refine bodyPost_ret (v := .tuple #[.agg #[.int .i64 k1, .string n1, .bool hn1, .string p1, .bool hp1, .string y1, .bool hy1, .bool q1, .slice A1 pn1 pc1, .bool sc1, .string d1, .int .i32 r1], .string C, .int .i64 N]) (by simp [results, Tryz.results25, go_sem, e0, e1, e2, e3, e4, e5, e6, e7, e8, e9, e10, e11]) rfl ?_
        rw [HF.out, ← HN.out, HCC.out]
        show MkR _ (T, C0, 1 + n) _ _ _
        exact ⟨_, rfl, tokRow_but HTK.out HRR.out rfl B6.out, hb7⟩
      · have HR5 := Lib.hid (HR4.out.but hB5 HRC.out)
        have HB5 := Lib.hid (below_but HB4.out hB5 HLE.out)
        have HP2 := Lib.hid hp
        have HS5 := Lib.hid (seesE 94 (fun args w => enters_of Tryz.func94 (by kernel_rfl) rfl args w) (fun r => decide ((r : Int) = 63)) cb _ 82 s k HK.out w5 (fun W x _ _ => isQuestion x W) h5)
        obtain ⟨q, hq⟩ : ∃ q, q = seesB (fun r => decide ((r : Int) = 63)) (s.data.toList.drop k) := ⟨_, rfl⟩
        rw [← hq] at HS5
        have HQ2 := Lib.hid hq
        have H5 := Lib.hid h5
        clear hq hp h5 hB5
        go_wp2_with fail
        refine HS5.out.mono ?_
        rintro e w6 ⟨rfl, hb6⟩
        have HR6 := Lib.hid (HR5.out.below hb6)
        have HBB6 := Lib.hid (below_next HB5.out hb6)
        have h6 := H5.out.below hb6
        clear hb6
        cases q with
        | true =>
          have hfin := mk_q (R := refL lg true) (cd := cd) HP.out HQ.out.symm HP2.out HQ2.out.symm
          have hD := bogusM cb s k HK.out HS.out m w6 (carry HM.out HBB6.out) (refL lg true) h6
          generalize goT (refL lg true) (s.data.toList.drop k) (bogZ (s.data.toList.drop k)) = X at hD hfin
          obtain ⟨T, C0, n⟩ := X
          unfold MkR at hD
          obtain ⟨N, hN⟩ : ∃ N : Int, N = ((k + n : Nat) : Int) := ⟨_, rfl⟩
          obtain ⟨C, hC⟩ : ∃ C, C = bl C0 := ⟨_, rfl⟩
          simp only [← hN, ← hC] at hD
          have HN := Lib.hid (show ((k + n : Nat) : Int) = N from hN.symm)
          have HCC := Lib.hid hC
          have HF := Lib.hid hfin
          have HD := Lib.hid hD
          clear h6 hfin hD hN hC
          go_wp2_with fail
          refine HD.out.mono ?_
          rintro e w6' ⟨v, rfl, ht, hb6⟩
          obtain ⟨k1, n1, hn1, p1, hp1, y1, hy1, q1, A1, pn1, pc1, sc1, d1, r1, rfl, -⟩ := ht.form
          have hR := HR6.out.below hb6
          have HB6' := Lib.hid (below_next HBB6.out hb6)
          have HTK := Lib.hid ht
          clear ht hb6
          have HRR := Lib.hid (show w6'.heap[r]? = some (.cells #[.int .i64 0, .string ⟨#[]⟩, .bool false, .string ⟨#[]⟩, .bool false, .string ⟨#[]⟩, .bool false, .bool false, .slice none 0 0, .bool false, .string ⟨#[]⟩, .int .i32 0] 27 (0, 0)) from hR)
          clear hR
          go_simp
          repeat (first
            | (refine wpList_store_tok (by rfl) 27 _ _ rfl r #[.int .i64 k1, .string n1, .bool hn1, .string p1, .bool hp1, .string y1, .bool hy1, .bool q1, .slice A1 pn1 pc1, .bool sc1, .string d1, .int .i32 r1] rfl rfl 27 _ HRR.out (by kernel_rfl) rfl (oc12 _ _ _ _ _ _ _ _ _ _ _ _ _ _) ?_; intro w6 h6 b6; have H6 := Lib.hid h6; have B6 := Lib.hid b6; clear h6 b6)
            | go_values
            | go_skip
            | go_guarded
            | go_step
            | go_upon
            | go_back)
          have hb7 := below_but HB6'.out B6.out HR0.out
          obtain ⟨e0, e1, e2, e3, e4, e5, e6, e7, e8, e9, e10, e11⟩ := TokAt.cells (show TokAt w6 r #[.int .i64 k1, .string n1, .bool hn1, .string p1, .bool hp1, .string y1, .bool hy1, .bool q1, .slice A1 pn1 pc1, .bool sc1, .string d1, .int .i32 r1] from H6.out)
          refine bodyPost_ret (v := .tuple #[.agg #[.int .i64 k1, .string n1, .bool hn1, .string p1, .bool hp1, .string y1, .bool hy1, .bool q1, .slice A1 pn1 pc1, .bool sc1, .string d1, .int .i32 r1], .string C, .int .i64 N]) (by simp [results, Tryz.results25, go_sem, e0, e1, e2, e3, e4, e5, e6, e7, e8, e9, e10, e11]) rfl ?_
          rw [HF.out, ← HN.out, HCC.out]
          exact ⟨_, rfl, tokRow_but HTK.out HRR.out rfl B6.out, hb7⟩
        | false =>
          have hfin := mk_else (R := refL lg true) (cd := cd) HP.out HQ.out.symm HP2.out HQ2.out.symm
          have HF := Lib.hid hfin
          have c1 := h6.cell1
          have hR := HR6.out
          clear hfin h6
          have HRR := Lib.hid hR
          obtain ⟨z0, z1, z2, z3, z4, z5, z6, z7, z8, z9, z10, z11⟩ := TokAt.zero hR
          obtain ⟨y0, y1, y2, y3, y4, y5, y6, y7, y8, y9, y10, y11⟩ := TokAt.frz hR
          have hne := HRC.out
          have hne2 := HRC.out.symm
          clear hR
          go_wp2_with fail
          go_region
          all_goals
            go_wp2_with fail
            obtain ⟨w3', hw3, h3', b3⟩ := retWb HRR.out (.int .i64 0) (.string ⟨#[]⟩) (.bool false) (.string ⟨#[]⟩) (.bool false) (.string ⟨#[]⟩) (.bool false) (.bool false) (.slice none 0 0) (.bool false) (.string ⟨#[]⟩) (.int .i32 0)
            rw [hw3]
            obtain ⟨e0, e1, e2, e3, e4, e5, e6, e7, e8, e9, e10, e11⟩ := TokAt.cells (show TokAt w3'.drew r #[.int .i64 0, .string ⟨#[]⟩, .bool false, .string ⟨#[]⟩, .bool false, .string ⟨#[]⟩, .bool false, .bool false, .slice none 0 0, .bool false, .string ⟨#[]⟩, .int .i32 0] from h3')
            clear hw3
            refine bodyPost_ret (v := .tuple #[.agg #[.int .i64 0, .string ⟨#[]⟩, .bool false, .string ⟨#[]⟩, .bool false, .string ⟨#[]⟩, .bool false, .bool false, .slice none 0 0, .bool false, .string ⟨#[]⟩, .int .i32 0], .string ⟨#[60]⟩, .int .i64 (k : Int)]) (by simp [results, Tryz.results25, go_sem, e0, e1, e2, e3, e4, e5, e6, e7, e8, e9, e10, e11]) rfl ?_
            rw [HF.out]
            exact ⟨_, rfl, tokRow_plain _ {} rfl, (below_but HBB6.out b3 HR0.out).drew⟩
end Go.Proofs.YtbacdfceiofahaaGreatDoor

namespace Go.Proofs.YtbacdfceiofahaaGreatDoor
open Go.RowKit Go.Shelf Go.Lib
set_option maxHeartbeats 4000000
set_option maxRecDepth 100000

abbrev FnT := List UInt8 → List UInt8 × Nat
noncomputable def fRef (flag : Bool) : FnT := fun t => refL lgL flag t
def fCom : FnT := comL
def fBog : FnT := fun t => (nulL (utL [62] t).1, (utL [62] t).2)
def fCda : FnT := fun t => utL [93, 93, 62] t
def fNam : FnT := fun t => (lowL (nulL (t.take (runN enU t))), runN enU t)
def rawN (last t : List UInt8) : Nat := t.length - (stopL last t).length
noncomputable def fRcd (last : List UInt8) : FnT := fun t => (res (refL lgL false) (t.take (rawN last t)), rawN last t)
def fRaw (last : List UInt8) : FnT := fun t => (nulL (t.take (rawN last t)), rawN last t)
def scrN (last t : List UInt8) : Nat := t.length - (scL last 0 0 t).length
def fScr (last : List UInt8) : FnT := fun t => (nulL (t.take (scrN last t)), scrN last t)
def fPla : FnT := fun t => (nulL t, t.length)
/-- What such a reader answers. -/
def Rd (F : FnT) (s : ByteArray) (a : Int) (w : World) (e : Ending) (w' : World) : Prop :=
  e = .returned (.tuple #[.string (bl (F (tlS s a)).1), .int .i64 ((clip s a + (F (tlS s a)).2 : Nat) : Int)]) ∧ Below w.heap.size w w'
theorem tl_size (s : ByteArray) (a : Int) : (tlS s a).length = s.size - clip s a := by unfold tlS; rw [List.length_drop, size_list]
theorem rdRef (s : ByteArray) (a : Int) (flag : Bool) (m : Int) (hs : s.size ≤ 100000) (w : World) (hc : CtlW w) (hm : w.cell? ⟨1, 0, none⟩ = some (.int .i64 m)) : Calls Tryz.prog 31 #[.string s, .int .i64 a, .bool flag] w (Rd (fRef flag) s a w) := by
  refine (referenceC lgL (Lib.hid lgOk) s a flag m (by omega) w hc hm).mono ?_
  rintro e w' ⟨V, N, rfl, hV, hN, _, hb⟩
  refine ⟨?_, hb⟩
  rw [bl_eq hV, hN]
  rfl
theorem rdCom (s : ByteArray) (a : Int) (m : Int) (hs : s.size ≤ 100000) (w : World) (hm : w.cell? ⟨1, 0, none⟩ = some (.int .i64 m)) : Calls Tryz.prog 32 #[.string s, .int .i64 a] w (Rd fCom s a w) := commentC s a m (by omega) w hm
theorem rdBog (s : ByteArray) (a : Int) (m : Int) (hs : s.size ≤ 100000) (w : World) (hm : w.cell? ⟨1, 0, none⟩ = some (.int .i64 m)) : Calls Tryz.prog 33 #[.string s, .int .i64 a] w (Rd fBog s a w) := bogusC s a m (by omega) w hm
theorem rdCda (s : ByteArray) (a : Int) (m : Int) (hs : s.size ≤ 100000) (w : World) (hm : w.cell? ⟨1, 0, none⟩ = some (.int .i64 m)) : Calls Tryz.prog 34 #[.string s, .int .i64 a] w (Rd fCda s a w) := cdata s a m (by omega) w hm
theorem rdNam (s : ByteArray) (a : Int) (m : Int) (hs : s.size ≤ 100000) (w : World) (hm : w.cell? ⟨1, 0, none⟩ = some (.int .i64 m)) : Calls Tryz.prog 35 #[.string s, .int .i64 a] w (Rd fNam s a w) := nameC s a m (by omega) w hm
theorem len_drop {t u : List UInt8} {N : Nat} (h : u = t.drop N) (hN : N ≤ t.length) : t.length - u.length = N := by
  rw [h, List.length_drop]
  omega
theorem rdRcd (s : ByteArray) (a : Int) (last : ByteArray) (m : Int) (hs : s.size ≤ 100000) (w : World) (hc : CtlW w) (hm : w.cell? ⟨1, 0, none⟩ = some (.int .i64 m)) : Calls Tryz.prog 36 #[.string s, .int .i64 a, .string last] w (Rd (fRcd last.data.toList) s a w) := by
  refine (rcdata lgL (Lib.hid lgOk) s a last m (by omega) w hc hm).mono ?_
  rintro e w' ⟨N, hN, hle, rfl, hb⟩
  refine ⟨?_, hb⟩
  have e : rawN last.data.toList (tlS s a) = N := len_drop hN (by rw [tl_size]; omega)
  unfold fRcd
  simp only [e]
theorem rdRaw (s : ByteArray) (a : Int) (last : ByteArray) (m : Int) (hs : s.size ≤ 100000) (w : World) (hm : w.cell? ⟨1, 0, none⟩ = some (.int .i64 m)) : Calls Tryz.prog 37 #[.string s, .int .i64 a, .string last] w (Rd (fRaw last.data.toList) s a w) := by
  refine (rawtext s a last m (by omega) w hm).mono ?_
  rintro e w' ⟨N, hN, hle, rfl, hb⟩
  refine ⟨?_, hb⟩
  have e : rawN last.data.toList (tlS s a) = N := len_drop hN (by rw [tl_size]; omega)
  unfold fRaw
  simp only [e]
theorem rdScr (s : ByteArray) (a : Int) (last : ByteArray) (m : Int) (hs : s.size ≤ 100000) (w : World) (hm : w.cell? ⟨1, 0, none⟩ = some (.int .i64 m)) : Calls Tryz.prog 38 #[.string s, .int .i64 a, .string last] w (Rd (fScr last.data.toList) s a w) := by
  refine (scriptC s a last m (by omega) w hm).mono ?_
  rintro e w' ⟨N, hN, hle, rfl, hb⟩
  refine ⟨?_, hb⟩
  have e : scrN last.data.toList (tlS s a) = N := len_drop hN (by rw [tl_size]; omega)
  unfold fScr
  simp only [e]
  rfl
theorem rdPla (s : ByteArray) (a : Int) (m : Int) (hs : s.size ≤ 100000) (w : World) (hm : w.cell? ⟨1, 0, none⟩ = some (.int .i64 m)) : Calls Tryz.prog 39 #[.string s, .int .i64 a] w (Rd fPla s a w) := by
  refine (plaintext s a m (by omega) w hm).mono ?_
  rintro e w' ⟨rfl, hb⟩
  refine ⟨?_, hb⟩
  have hk := clip_le s a
  have e : clip s a + (tlS s a).length = s.size := by rw [tl_size]; omega
  unfold fPla
  simp only [e]

/-! ### How far -/
theorem fRef_le (flag : Bool) (t : List UInt8) : (fRef flag t).2 ≤ t.length := (refL_le lgOk flag t).1
theorem fCom_le (t : List UInt8) : (fCom t).2 ≤ t.length := comL_le t
theorem fBog_le (t : List UInt8) : (fBog t).2 ≤ t.length := utAll_le [62] (by simp) t
theorem fCda_le (t : List UInt8) : (fCda t).2 ≤ t.length := utAll_le [93, 93, 62] (by simp) t
theorem fNam_le (t : List UInt8) : (fNam t).2 ≤ t.length := runN_le enU t
theorem fRcd_le (last t : List UInt8) : (fRcd last t).2 ≤ t.length := Nat.sub_le _ _
theorem fRaw_le (last t : List UInt8) : (fRaw last t).2 ≤ t.length := Nat.sub_le _ _
theorem fScr_le (last t : List UInt8) : (fScr last t).2 ≤ t.length := Nat.sub_le _ _
theorem fPla_le (t : List UInt8) : (fPla t).2 ≤ t.length := Nat.le_refl _
end Go.Proofs.YtbacdfceiofahaaGreatDoor

namespace Go.Proofs.YtbacdfceiofahaaGreatDoor
open Go.RowKit Go.Shelf Go.Lib
set_option maxHeartbeats 8000000
set_option maxRecDepth 100000

theorem wpList_load_wanted2 {P : Program} {ops : Array Oper} {rest : List Oper} {o : Oper} {a : Act} {w : World} {Q : Exit → Act → World → Prop} (hw : Region.wanted o (yielded ops a.tmps) = true) (ty : TypeId) (x : Operand) (ho : o.op = .load ty x)
    (g : Nat) (hx : a.eval x = .pointer (some ⟨g, 0, none⟩)) (t : TypeId) (cs : Array Value) (fr : Nat × Nat) (d : TypeDesc) (hg : w.heap[g]? = some (.cells cs t fr))
    (hu : P.underlying ty = some d) (hd : (match d with | .struct _ | .array _ _ => true | _ => false) = true) (hi : (P.info? ty).map (·.size) = some cs.size)
    (h : wpList P ops Q rest (a.put o.dst (.agg cs)) w) : wpList P ops Q (o :: rest) a w :=
  wpList_step fun K hK => by rw [if_pos hw]; exact wp_load_row ty x ho g hx t cs fr d hg hu hd hi (hK _ _ h)
/-- A reader at the offset and at the clamped one. -/
theorem rd_same {F : FnT} {s : ByteArray} {a : Int} {kk : Nat} (hkk : kk = clip s a) (hle : ∀ t, (F t).2 ≤ t.length) :
    ∃ (V : ByteArray) (x : Int), (kk : Int) ≤ x ∧ x ≤ (s.size : Int) ∧
      (∀ w e w', Rd F s a w e w' → e = .returned (.tuple #[.string V, .int .i64 x]) ∧ Below w.heap.size w w') ∧
      (∀ w e w', Rd F s (kk : Int) w e w' → e = .returned (.tuple #[.string V, .int .i64 x]) ∧ Below w.heap.size w w') := by
  have hk := clip_le s a
  have e1 : clip s (kk : Int) = kk := clip_nat s kk (by omega)
  have e2 : tlS s (kk : Int) = tlS s a := by rw [tlS_nat s kk (by omega), hkk]; rfl
  have hl := hle (tlS s a)
  rw [tl_size] at hl
  refine ⟨bl (F (tlS s a)).1, ((kk + (F (tlS s a)).2 : Nat) : Int), by omega, by omega, ?_, ?_⟩
  · rintro w e w' ⟨rfl, hb⟩
    rw [← hkk]
    exact ⟨rfl, hb⟩
  · rintro w e w' ⟨rfl, hb⟩
    rw [e1, e2]
    exact ⟨rfl, hb⟩

theorem lawClamps (s : ByteArray) (a : Int) (last : ByteArray) (flag : Bool) (m : Int) (w : World) (hm : w.cell? ⟨1, 0, none⟩ = some (.int .i64 m)) (hc : CtlW w) :
    Calls Tryz.prog 7 #[.string s, .int .i64 a, .string last, .bool flag] w fun e w' => e = .returned (.bool true) ∧ Below w.heap.size w w' := by
  have HM := Lib.hid hm
  have HC := Lib.hid hc
  have HS1 := Lib.hid (small02 s)
  have HS3 := Lib.hid (small02 last)
  have HK := Lib.hid (known02 m w hc hm)
  clear hm hc
  by_cases hs : s.size ≤ 4096
  · rw [decide_eq_true hs] at HS1
    by_cases hlast : last.size ≤ 4096
    · rw [decide_eq_true hlast] at HS3
      have gs : (s.size : Int) ≤ 4096 := by omega
      have hk := clip_le s a
      have ek : min (max a 0) (s.size : Int) = (clip s a : Nat) := by unfold clip; omega
      obtain ⟨kk, hkk⟩ : ∃ kk, kk = clip s a := ⟨_, rfl⟩
      obtain ⟨VRef, xRef, lRef, uRef, sRef, bRef⟩ := rd_same (F := (fRef flag)) hkk (fRef_le flag)
      have SRef := Lib.hid (fun W hc hm => (rdRef s a flag m (by omega) W hc hm).mono (fun e w' h => sRef W e w' h))
      have BRef := Lib.hid (fun W hc hm => (rdRef s (kk : Int) flag m (by omega) W hc hm).mono (fun e w' h => bRef W e w' h))
      clear sRef bRef
      obtain ⟨VCom, xCom, lCom, uCom, sCom, bCom⟩ := rd_same (F := fCom) hkk (fCom_le)
      have SCom := Lib.hid (fun W hm => (rdCom s a m (by omega) W hm).mono (fun e w' h => sCom W e w' h))
      have BCom := Lib.hid (fun W hm => (rdCom s (kk : Int) m (by omega) W hm).mono (fun e w' h => bCom W e w' h))
      clear sCom bCom
      obtain ⟨VBog, xBog, lBog, uBog, sBog, bBog⟩ := rd_same (F := fBog) hkk (fBog_le)
      have SBog := Lib.hid (fun W hm => (rdBog s a m (by omega) W hm).mono (fun e w' h => sBog W e w' h))
      have BBog := Lib.hid (fun W hm => (rdBog s (kk : Int) m (by omega) W hm).mono (fun e w' h => bBog W e w' h))
      clear sBog bBog
      obtain ⟨VCda, xCda, lCda, uCda, sCda, bCda⟩ := rd_same (F := fCda) hkk (fCda_le)
      have SCda := Lib.hid (fun W hm => (rdCda s a m (by omega) W hm).mono (fun e w' h => sCda W e w' h))
      have BCda := Lib.hid (fun W hm => (rdCda s (kk : Int) m (by omega) W hm).mono (fun e w' h => bCda W e w' h))
      clear sCda bCda
      obtain ⟨VNam, xNam, lNam, uNam, sNam, bNam⟩ := rd_same (F := fNam) hkk (fNam_le)
      have SNam := Lib.hid (fun W hm => (rdNam s a m (by omega) W hm).mono (fun e w' h => sNam W e w' h))
      have BNam := Lib.hid (fun W hm => (rdNam s (kk : Int) m (by omega) W hm).mono (fun e w' h => bNam W e w' h))
      clear sNam bNam
      obtain ⟨VRcd, xRcd, lRcd, uRcd, sRcd, bRcd⟩ := rd_same (F := (fRcd last.data.toList)) hkk (fRcd_le _)
      have SRcd := Lib.hid (fun W hc hm => (rdRcd s a last m (by omega) W hc hm).mono (fun e w' h => sRcd W e w' h))
      have BRcd := Lib.hid (fun W hc hm => (rdRcd s (kk : Int) last m (by omega) W hc hm).mono (fun e w' h => bRcd W e w' h))
      clear sRcd bRcd
      obtain ⟨VRaw, xRaw, lRaw, uRaw, sRaw, bRaw⟩ := rd_same (F := (fRaw last.data.toList)) hkk (fRaw_le _)
      have SRaw := Lib.hid (fun W hm => (rdRaw s a last m (by omega) W hm).mono (fun e w' h => sRaw W e w' h))
      have BRaw := Lib.hid (fun W hm => (rdRaw s (kk : Int) last m (by omega) W hm).mono (fun e w' h => bRaw W e w' h))
      clear sRaw bRaw
      obtain ⟨VScr, xScr, lScr, uScr, sScr, bScr⟩ := rd_same (F := (fScr last.data.toList)) hkk (fScr_le _)
      have SScr := Lib.hid (fun W hm => (rdScr s a last m (by omega) W hm).mono (fun e w' h => sScr W e w' h))
      have BScr := Lib.hid (fun W hm => (rdScr s (kk : Int) last m (by omega) W hm).mono (fun e w' h => bScr W e w' h))
      clear sScr bScr
      obtain ⟨VPla, xPla, lPla, uPla, sPla, bPla⟩ := rd_same (F := fPla) hkk (fPla_le)
      have SPla := Lib.hid (fun W hm => (rdPla s a m (by omega) W hm).mono (fun e w' h => sPla W e w' h))
      have BPla := Lib.hid (fun W hm => (rdPla s (kk : Int) m (by omega) W hm).mono (fun e w' h => bPla W e w' h))
      clear sPla bPla
      have e1 : clip s (kk : Int) = kk := clip_nat s kk (by omega)
      have e2 : tlS s (kk : Int) = tlS s a := by rw [tlS_nat s kk (by omega), hkk]; rfl
      have KA := fun W hc hm => markupM lgL (Lib.hid lgOk) s a flag m (by omega) W hc hm
      have KK := fun W hc hm => markupM lgL (Lib.hid lgOk) s (kk : Int) flag m (by omega) W hc hm
      have DA := fun W hm => docM s a m (by omega) W hm
      have DK := fun W hm => docM s (kk : Int) m (by omega) W hm
      rw [e1, e2] at KK DK
      rw [← hkk] at KA DA
      have hmk := mkT_le (refL lgL true) flag (tlS s a)
      have hdk := docT_le (tlS s a)
      rw [tl_size, ← hkk] at hmk hdk
      generalize mkT (refL lgL true) flag (tlS s a) = X at KA KK hmk
      generalize docT (tlS s a) = Y at DA DK hdk
      obtain ⟨T, C0, nX⟩ := X
      obtain ⟨U, nY⟩ := Y
      unfold MkR at KA KK
      unfold DocR at DA DK
      obtain ⟨C, hC⟩ : ∃ C, C = bl C0 := ⟨_, rfl⟩
      obtain ⟨xX, hxX⟩ : ∃ x : Int, x = ((kk + nX : Nat) : Int) := ⟨_, rfl⟩
      obtain ⟨xY, hxY⟩ : ∃ x : Int, x = ((kk + nY : Nat) : Int) := ⟨_, rfl⟩
      simp only [← hC, ← hxX] at KA KK
      simp only [← hxY] at DA DK
      obtain ⟨K0, hK0⟩ : ∃ K0 : Int, K0 = (kk : Int) := ⟨_, rfl⟩
      have gX1 : K0 ≤ xX := by omega
      have gX2 : xX ≤ (s.size : Int) := by simp only at hmk; omega
      have gY1 : K0 ≤ xY := by omega
      have gY2 : xY ≤ (s.size : Int) := by simp only at hdk; omega
      have HKA := Lib.hid KA
      have HDA := Lib.hid DA
      rw [← hkk, ← hK0] at ek
      rw [← hK0] at KK DK
      rw [← hK0] at BRef lRef
      rw [← hK0] at BCom lCom
      rw [← hK0] at BBog lBog
      rw [← hK0] at BCda lCda
      rw [← hK0] at BNam lNam
      rw [← hK0] at BRcd lRcd
      rw [← hK0] at BRaw lRaw
      rw [← hK0] at BScr lScr
      rw [← hK0] at BPla lPla
      have HKK := Lib.hid KK
      have HDK := Lib.hid DK
      have HEK := Lib.hid ek
      have HCE : Hid (∀ k, k < 9 → K0 ≤ ([xRef, xCom, xBog, xCda, xNam, xRcd, xRaw, xScr, xPla].getD k 0) ∧ ([xRef, xCom, xBog, xCda, xNam, xRcd, xRaw, xScr, xPla].getD k 0) ≤ (s.size : Int)) := Lib.hid (by
        intro k hk
        match k, hk with
        | 0, _ => exact ⟨lRef, uRef⟩
        | 1, _ => exact ⟨lCom, uCom⟩
        | 2, _ => exact ⟨lBog, uBog⟩
        | 3, _ => exact ⟨lCda, uCda⟩
        | 4, _ => exact ⟨lNam, uNam⟩
        | 5, _ => exact ⟨lRcd, uRcd⟩
        | 6, _ => exact ⟨lRaw, uRaw⟩
        | 7, _ => exact ⟨lScr, uScr⟩
        | 8, _ => exact ⟨lPla, uPla⟩)
      clear KA KK DA DK hC hxX hxY hmk hdk e1 e2 hkk hK0 ek hk hs hlast lRef uRef lCom uCom lBog uBog lCda uCda lNam uNam lRcd uRcd lRaw uRaw lScr uScr lPla uPla
      go_enter Tryz.func7, Tryz.ntmps7
      go_wp2_with fail
      refine (HS1.out _).mono ?_
      rintro e w0 ⟨rfl, rfl⟩
      go_wp2_with fail
      refine (HS3.out _).mono ?_
      rintro e w0 ⟨rfl, rfl⟩
      go_wp2_with fail
      rw [HEK.out]
      have HBW := Lib.hid (Below.refl w0.heap.size w0)
      clear HS1 HS3
      refine (SRef.out _ (HC.out.below HBW.out) (carry HM.out HBW.out)).mono ?_
      rintro e wn ⟨rfl, hs⟩
      have hbn := below_next HBW.out hs
      have HBW := Lib.hid hbn
      skip
      clear hs hbn
      go_wp2_with fail
      refine (kof _ _ _ ).mono ?_
      rintro e wn ⟨rfl, hs⟩
      have hbn := below_next HBW.out hs
      have HBW := Lib.hid hbn
      skip
      clear hs hbn
      go_wp2_with fail
      refine (SCom.out _ (carry HM.out HBW.out)).mono ?_
      rintro e wn ⟨rfl, hs⟩
      have hbn := below_next HBW.out hs
      have HBW := Lib.hid hbn
      skip
      clear hs hbn
      go_wp2_with fail
      refine (kof _ _ _ ).mono ?_
      rintro e wn ⟨rfl, hs⟩
      have hbn := below_next HBW.out hs
      have HBW := Lib.hid hbn
      skip
      clear hs hbn
      go_wp2_with fail
      refine (SBog.out _ (carry HM.out HBW.out)).mono ?_
      rintro e wn ⟨rfl, hs⟩
      have hbn := below_next HBW.out hs
      have HBW := Lib.hid hbn
      skip
      clear hs hbn
      go_wp2_with fail
      refine (kof _ _ _ ).mono ?_
      rintro e wn ⟨rfl, hs⟩
      have hbn := below_next HBW.out hs
      have HBW := Lib.hid hbn
      skip
      clear hs hbn
      go_wp2_with fail
      refine (SCda.out _ (carry HM.out HBW.out)).mono ?_
      rintro e wn ⟨rfl, hs⟩
      have hbn := below_next HBW.out hs
      have HBW := Lib.hid hbn
      skip
      clear hs hbn
      go_wp2_with fail
      refine (kof _ _ _ ).mono ?_
      rintro e wn ⟨rfl, hs⟩
      have hbn := below_next HBW.out hs
      have HBW := Lib.hid hbn
      skip
      clear hs hbn
      go_wp2_with fail
      refine (SNam.out _ (carry HM.out HBW.out)).mono ?_
      rintro e wn ⟨rfl, hs⟩
      have hbn := below_next HBW.out hs
      have HBW := Lib.hid hbn
      skip
      clear hs hbn
      go_wp2_with fail
      refine (kof _ _ _ ).mono ?_
      rintro e wn ⟨rfl, hs⟩
      have hbn := below_next HBW.out hs
      have HBW := Lib.hid hbn
      skip
      clear hs hbn
      go_wp2_with fail
      refine (SRcd.out _ (HC.out.below HBW.out) (carry HM.out HBW.out)).mono ?_
      rintro e wn ⟨rfl, hs⟩
      have hbn := below_next HBW.out hs
      have HBW := Lib.hid hbn
      skip
      clear hs hbn
      go_wp2_with fail
      refine (kof _ _ _ ).mono ?_
      rintro e wn ⟨rfl, hs⟩
      have hbn := below_next HBW.out hs
      have HBW := Lib.hid hbn
      skip
      clear hs hbn
      go_wp2_with fail
      refine (SRaw.out _ (carry HM.out HBW.out)).mono ?_
      rintro e wn ⟨rfl, hs⟩
      have hbn := below_next HBW.out hs
      have HBW := Lib.hid hbn
      skip
      clear hs hbn
      go_wp2_with fail
      refine (kof _ _ _ ).mono ?_
      rintro e wn ⟨rfl, hs⟩
      have hbn := below_next HBW.out hs
      have HBW := Lib.hid hbn
      skip
      clear hs hbn
      go_wp2_with fail
      refine (SScr.out _ (carry HM.out HBW.out)).mono ?_
      rintro e wn ⟨rfl, hs⟩
      have hbn := below_next HBW.out hs
      have HBW := Lib.hid hbn
      skip
      clear hs hbn
      go_wp2_with fail
      refine (kof _ _ _ ).mono ?_
      rintro e wn ⟨rfl, hs⟩
      have hbn := below_next HBW.out hs
      have HBW := Lib.hid hbn
      skip
      clear hs hbn
      go_wp2_with fail
      refine (SPla.out _ (carry HM.out HBW.out)).mono ?_
      rintro e wn ⟨rfl, hs⟩
      have hbn := below_next HBW.out hs
      have HBW := Lib.hid hbn
      skip
      clear hs hbn
      go_wp2_with fail
      refine (kof _ _ _ ).mono ?_
      rintro e wn ⟨rfl, hs⟩
      have hbn := below_next HBW.out hs
      have HBW := Lib.hid hbn
      skip
      clear hs hbn
      go_wp2_with fail
      generalize hwl : World.alloc _ _ = wl
      have tl : wl.heap[wn.heap.size]? = some (.cells #[.string VRef, .int .i64 xRef, .string VCom, .int .i64 xCom, .string VBog, .int .i64 xBog, .string VCda, .int .i64 xCda, .string VNam, .int .i64 xNam, .string VRcd, .int .i64 xRcd, .string VRaw, .int .i64 xRaw, .string VScr, .int .i64 xScr, .string VPla, .int .i64 xPla] 42 (0, 0)) := by
        rw [← hwl]
        show (wn.heap.push _)[wn.heap.size]? = _; exact Array.getElem?_push_size
      have hbl : Below w0.heap.size w0 wl := by rw [← hwl]; exact below_alloc HBW.out _
      have HTl := Lib.hid tl
      clear hwl tl
      generalize wn.heap.size = gl at HTl ⊢
      have HBW := Lib.hid hbl
      have HBl := HBW
      clear hbl
      have HBV := Lib.hid (Below.refl wl.heap.size wl)
      have HGL := Lib.hid (show gl < wl.heap.size from (Array.getElem?_eq_some_iff.1 HTl.out).1)
      refine (BRef.out _ (HC.out.below HBW.out) (carry HM.out HBW.out)).mono ?_
      rintro e wn ⟨rfl, hs⟩
      have hbn := below_next HBW.out hs
      have HBW := Lib.hid hbn
      have HBV := Lib.hid (below_next HBV.out hs)
      clear hs hbn
      go_wp2_with fail
      refine (kof _ _ _ ).mono ?_
      rintro e wn ⟨rfl, hs⟩
      have hbn := below_next HBW.out hs
      have HBW := Lib.hid hbn
      have HBV := Lib.hid (below_next HBV.out hs)
      clear hs hbn
      go_wp2_with fail
      refine (BCom.out _ (carry HM.out HBW.out)).mono ?_
      rintro e wn ⟨rfl, hs⟩
      have hbn := below_next HBW.out hs
      have HBW := Lib.hid hbn
      have HBV := Lib.hid (below_next HBV.out hs)
      clear hs hbn
      go_wp2_with fail
      refine (kof _ _ _ ).mono ?_
      rintro e wn ⟨rfl, hs⟩
      have hbn := below_next HBW.out hs
      have HBW := Lib.hid hbn
      have HBV := Lib.hid (below_next HBV.out hs)
      clear hs hbn
      go_wp2_with fail
      refine (BBog.out _ (carry HM.out HBW.out)).mono ?_
      rintro e wn ⟨rfl, hs⟩
      have hbn := below_next HBW.out hs
      have HBW := Lib.hid hbn
      have HBV := Lib.hid (below_next HBV.out hs)
      clear hs hbn
      go_wp2_with fail
      refine (kof _ _ _ ).mono ?_
      rintro e wn ⟨rfl, hs⟩
      have hbn := below_next HBW.out hs
      have HBW := Lib.hid hbn
      have HBV := Lib.hid (below_next HBV.out hs)
      clear hs hbn
      go_wp2_with fail
      refine (BCda.out _ (carry HM.out HBW.out)).mono ?_
      rintro e wn ⟨rfl, hs⟩
      have hbn := below_next HBW.out hs
      have HBW := Lib.hid hbn
      have HBV := Lib.hid (below_next HBV.out hs)
      clear hs hbn
      go_wp2_with fail
      refine (kof _ _ _ ).mono ?_
      rintro e wn ⟨rfl, hs⟩
      have hbn := below_next HBW.out hs
      have HBW := Lib.hid hbn
      have HBV := Lib.hid (below_next HBV.out hs)
      clear hs hbn
      go_wp2_with fail
      refine (BNam.out _ (carry HM.out HBW.out)).mono ?_
      rintro e wn ⟨rfl, hs⟩
      have hbn := below_next HBW.out hs
      have HBW := Lib.hid hbn
      have HBV := Lib.hid (below_next HBV.out hs)
      clear hs hbn
      go_wp2_with fail
      refine (kof _ _ _ ).mono ?_
      rintro e wn ⟨rfl, hs⟩
      have hbn := below_next HBW.out hs
      have HBW := Lib.hid hbn
      have HBV := Lib.hid (below_next HBV.out hs)
      clear hs hbn
      go_wp2_with fail
      refine (BRcd.out _ (HC.out.below HBW.out) (carry HM.out HBW.out)).mono ?_
      rintro e wn ⟨rfl, hs⟩
      have hbn := below_next HBW.out hs
      have HBW := Lib.hid hbn
      have HBV := Lib.hid (below_next HBV.out hs)
      clear hs hbn
      go_wp2_with fail
      refine (kof _ _ _ ).mono ?_
      rintro e wn ⟨rfl, hs⟩
      have hbn := below_next HBW.out hs
      have HBW := Lib.hid hbn
      have HBV := Lib.hid (below_next HBV.out hs)
      clear hs hbn
      go_wp2_with fail
      refine (BRaw.out _ (carry HM.out HBW.out)).mono ?_
      rintro e wn ⟨rfl, hs⟩
      have hbn := below_next HBW.out hs
      have HBW := Lib.hid hbn
      have HBV := Lib.hid (below_next HBV.out hs)
      clear hs hbn
      go_wp2_with fail
      refine (kof _ _ _ ).mono ?_
      rintro e wn ⟨rfl, hs⟩
      have hbn := below_next HBW.out hs
      have HBW := Lib.hid hbn
      have HBV := Lib.hid (below_next HBV.out hs)
      clear hs hbn
      go_wp2_with fail
      refine (BScr.out _ (carry HM.out HBW.out)).mono ?_
      rintro e wn ⟨rfl, hs⟩
      have hbn := below_next HBW.out hs
      have HBW := Lib.hid hbn
      have HBV := Lib.hid (below_next HBV.out hs)
      clear hs hbn
      go_wp2_with fail
      refine (kof _ _ _ ).mono ?_
      rintro e wn ⟨rfl, hs⟩
      have hbn := below_next HBW.out hs
      have HBW := Lib.hid hbn
      have HBV := Lib.hid (below_next HBV.out hs)
      clear hs hbn
      go_wp2_with fail
      refine (BPla.out _ (carry HM.out HBW.out)).mono ?_
      rintro e wn ⟨rfl, hs⟩
      have hbn := below_next HBW.out hs
      have HBW := Lib.hid hbn
      have HBV := Lib.hid (below_next HBV.out hs)
      clear hs hbn
      go_wp2_with fail
      refine (kof _ _ _ ).mono ?_
      rintro e wn ⟨rfl, hs⟩
      have hbn := below_next HBW.out hs
      have HBW := Lib.hid hbn
      have HBV := Lib.hid (below_next HBV.out hs)
      clear hs hbn
      go_wp2_with fail
      generalize hwm : World.alloc _ _ = wm
      have tm : wm.heap[wn.heap.size]? = some (.cells #[.string VRef, .int .i64 xRef, .string VCom, .int .i64 xCom, .string VBog, .int .i64 xBog, .string VCda, .int .i64 xCda, .string VNam, .int .i64 xNam, .string VRcd, .int .i64 xRcd, .string VRaw, .int .i64 xRaw, .string VScr, .int .i64 xScr, .string VPla, .int .i64 xPla] 42 (0, 0)) := by
        rw [← hwm]
        show (wn.heap.push _)[wn.heap.size]? = _; exact Array.getElem?_push_size
      have hbm : Below w0.heap.size w0 wm := by rw [← hwm]; exact below_alloc HBW.out _
      have hbv : Below wl.heap.size wl wm := by rw [← hwm]; exact below_alloc HBV.out _
      have tl : wm.heap[gl]? = some (.cells #[.string VRef, .int .i64 xRef, .string VCom, .int .i64 xCom, .string VBog, .int .i64 xBog, .string VCda, .int .i64 xCda, .string VNam, .int .i64 xNam, .string VRcd, .int .i64 xRcd, .string VRaw, .int .i64 xRaw, .string VScr, .int .i64 xScr, .string VPla, .int .i64 xPla] 42 (0, 0)) := (hbv.block gl HGL.out).trans HTl.out
      have hgl : gl < wm.heap.size := (Array.getElem?_eq_some_iff.1 tl).1
      have hgm : wn.heap.size < wm.heap.size := (Array.getElem?_eq_some_iff.1 tm).1
      generalize wn.heap.size = gm at tm hgm ⊢
      have HBM := Lib.hid hbm
      have HMm := Lib.hid (carry HM.out hbm)
      have HCm := Lib.hid (HC.out.below hbm)
      clear hwm hbm hbv HBV HTl HGL
      obtain ⟨Xf, hXf⟩ : ∃ Xf : Nat → ByteArray, Xf = fun k => [VRef, VCom, VBog, VCda, VNam, VRcd, VRaw, VScr, VPla].getD k VRef := ⟨_, rfl⟩
      obtain ⟨nf, hnf⟩ : ∃ nf : Nat → Int, nf = fun k => [xRef, xCom, xBog, xCda, xNam, xRcd, xRaw, xScr, xPla].getD k 0 := ⟨_, rfl⟩
      have HCC : Hid (∀ k, k < 9 → (wm.cell? ⟨gl, k * 2, none⟩ = some (.string (Xf k)) ∧ wm.cell? ⟨gl, k * 2 + 1, none⟩ = some (.int .i64 (nf k))) ∧ (wm.cell? ⟨gm, k * 2, none⟩ = some (.string (Xf k)) ∧ wm.cell? ⟨gm, k * 2 + 1, none⟩ = some (.int .i64 (nf k))) ∧ K0 ≤ nf k ∧ nf k ≤ (s.size : Int)) := Lib.hid (by
        intro k hk
        have hce := HCE.out k hk
        rw [hXf, hnf]
        match k, hk with
        | 0, _ => exact ⟨⟨heap_cell tl 0, heap_cell tl 1⟩, ⟨heap_cell tm 0, heap_cell tm 1⟩, hce⟩
        | 1, _ => exact ⟨⟨heap_cell tl 2, heap_cell tl 3⟩, ⟨heap_cell tm 2, heap_cell tm 3⟩, hce⟩
        | 2, _ => exact ⟨⟨heap_cell tl 4, heap_cell tl 5⟩, ⟨heap_cell tm 4, heap_cell tm 5⟩, hce⟩
        | 3, _ => exact ⟨⟨heap_cell tl 6, heap_cell tl 7⟩, ⟨heap_cell tm 6, heap_cell tm 7⟩, hce⟩
        | 4, _ => exact ⟨⟨heap_cell tl 8, heap_cell tl 9⟩, ⟨heap_cell tm 8, heap_cell tm 9⟩, hce⟩
        | 5, _ => exact ⟨⟨heap_cell tl 10, heap_cell tl 11⟩, ⟨heap_cell tm 10, heap_cell tm 11⟩, hce⟩
        | 6, _ => exact ⟨⟨heap_cell tl 12, heap_cell tl 13⟩, ⟨heap_cell tm 12, heap_cell tm 13⟩, hce⟩
        | 7, _ => exact ⟨⟨heap_cell tl 14, heap_cell tl 15⟩, ⟨heap_cell tm 14, heap_cell tm 15⟩, hce⟩
        | 8, _ => exact ⟨⟨heap_cell tl 16, heap_cell tl 17⟩, ⟨heap_cell tm 16, heap_cell tm 17⟩, hce⟩)
      have HGL := Lib.hid hgl
      have HGM := Lib.hid hgm
      clear tl tm hXf hnf hgl hgm HCE SRef BRef SCom BCom SBog BBog SCda BCda SNam BNam SRcd BRcd SRaw BRaw SScr BScr SPla BPla
      go_loopw [12] (fun i wr => ∃ k : Nat, k ≤ 9 ∧ i = .int .i64 k ∧ Below wm.heap.size wm wr) (fun i _ => 9 - (intOf i).toNat)
      case atStart => exact ⟨0, by omega, rfl, Below.refl _ _⟩
      case round =>
        obtain ⟨k, hk, rfl, hB⟩ := hrel
        by_cases hlt : k < 9
        · have hI : (k : Int) < 9 := by omega
          obtain ⟨⟨c0, c1⟩, ⟨d0, d1⟩, hq1, hq2⟩ := HCC.out k hlt
          generalize Xf k = X at c0 d0
          generalize nf k = nn at c1 d1 hq1 hq2
          replace c0 := (hB.cell (p := ⟨gl, k * 2, none⟩) HGL.out).trans c0
          replace c1 := (hB.cell (p := ⟨gl, k * 2 + 1, none⟩) HGL.out).trans c1
          replace d0 := (hB.cell (p := ⟨gm, k * 2, none⟩) HGM.out).trans d0
          replace d1 := (hB.cell (p := ⟨gm, k * 2 + 1, none⟩) HGM.out).trans d1
          have dn1 : decide (nn < K0) = false := decide_eq_false (by omega)
          have dn2 : decide ((s.size : Int) < nn) = false := decide_eq_false (by omega)
          have tx : (X.toList == X.toList) = true := beq_self_eq_true _
          have tn : (nn == nn) = true := beq_self_eq_true _
          clear hq1 hq2
          go_wp2_with fail
          go_quiet (fail)
          go_wp2_with fail
          go_roundw
          case rel => exact ⟨k + 1, by omega, by go_num, _root_.Go.below_drewN hB _⟩
          case measure => simp [intOf]; omega
        · have hI2 : ¬ (k : Int) < 9 := by omega
          have HBW := Lib.hid (below_next HBM.out hB)
          clear hB
          go_wp2_with fail
          refine (HKA.out _ (HC.out.below HBW.out) (carry HM.out HBW.out)).mono ?_
          rintro e wn ⟨v, rfl, ht, hs⟩
          obtain ⟨k1, n1, hn1, p1, hp1, y1, hy1, q1, A1, pn1, pc1, sc1, d1, r1, rfl, -⟩ := ht.form
          have hbn := below_next HBW.out hs
          clear hs
          go_wp2_with fail
          generalize hW : World.alloc _ _ = wa
          have hx : TokAt wa wn.heap.size #[.int .i64 k1, .string n1, .bool hn1, .string p1, .bool hp1, .string y1, .bool hy1, .bool q1, .slice A1 pn1 pc1, .bool sc1, .string d1, .int .i32 r1] := by rw [← hW]; exact tokAt_new wn _
          have hs : Below wn.heap.size wn wa := by rw [← hW]; exact below_alloc (Below.refl _ _) _
          have HX1 := Lib.hid hx
          have HR1 := Lib.hid (ht.below hs)
          have HBW := Lib.hid (below_next hbn hs)
          clear hW hx hs ht hbn
          generalize wn.heap.size = g1 at HX1 ⊢
          refine (HKK.out _ (HC.out.below HBW.out) (carry HM.out HBW.out)).mono ?_
          rintro e wn ⟨v, rfl, ht, hs⟩
          obtain ⟨k2, n2, hn2, p2, hp2, y2, hy2, q2, A2, pn2, pc2, sc2, d2, r2, rfl, -⟩ := ht.form
          have hbn := below_next HBW.out hs
          have HX1 := Lib.hid (HX1.out.below hs)
          have HR1 := Lib.hid (HR1.out.below hs)
          clear hs
          go_wp2_with fail
          generalize hW : World.alloc _ _ = wa
          have hx : TokAt wa wn.heap.size #[.int .i64 k2, .string n2, .bool hn2, .string p2, .bool hp2, .string y2, .bool hy2, .bool q2, .slice A2 pn2 pc2, .bool sc2, .string d2, .int .i32 r2] := by rw [← hW]; exact tokAt_new wn _
          have hs : Below wn.heap.size wn wa := by rw [← hW]; exact below_alloc (Below.refl _ _) _
          have HX2 := Lib.hid hx
          have HR2 := Lib.hid (ht.below hs)
          have HBW := Lib.hid (below_next hbn hs)
          have HX1 := Lib.hid (HX1.out.below hs)
          have HR1 := Lib.hid (HR1.out.below hs)
          clear hW hx hs ht hbn
          generalize wn.heap.size = g2 at HX2 ⊢
          refine (HDA.out _ (carry HM.out HBW.out)).mono ?_
          rintro e wn ⟨v, rfl, ht, hs⟩
          obtain ⟨k3, n3, hn3, p3, hp3, y3, hy3, q3, A3, pn3, pc3, sc3, d3, r3, rfl, -⟩ := ht.form
          have hbn := below_next HBW.out hs
          have HX1 := Lib.hid (HX1.out.below hs)
          have HR1 := Lib.hid (HR1.out.below hs)
          have HX2 := Lib.hid (HX2.out.below hs)
          have HR2 := Lib.hid (HR2.out.below hs)
          clear hs
          go_wp2_with fail
          generalize hW : World.alloc _ _ = wa
          have hx : TokAt wa wn.heap.size #[.int .i64 k3, .string n3, .bool hn3, .string p3, .bool hp3, .string y3, .bool hy3, .bool q3, .slice A3 pn3 pc3, .bool sc3, .string d3, .int .i32 r3] := by rw [← hW]; exact tokAt_new wn _
          have hs : Below wn.heap.size wn wa := by rw [← hW]; exact below_alloc (Below.refl _ _) _
          have HX3 := Lib.hid hx
          have HR3 := Lib.hid (ht.below hs)
          have HBW := Lib.hid (below_next hbn hs)
          have HX1 := Lib.hid (HX1.out.below hs)
          have HR1 := Lib.hid (HR1.out.below hs)
          have HX2 := Lib.hid (HX2.out.below hs)
          have HR2 := Lib.hid (HR2.out.below hs)
          clear hW hx hs ht hbn
          generalize wn.heap.size = g3 at HX3 ⊢
          refine (HDK.out _ (carry HM.out HBW.out)).mono ?_
          rintro e wn ⟨v, rfl, ht, hs⟩
          obtain ⟨k4, n4, hn4, p4, hp4, y4, hy4, q4, A4, pn4, pc4, sc4, d4, r4, rfl, -⟩ := ht.form
          have hbn := below_next HBW.out hs
          have HX1 := Lib.hid (HX1.out.below hs)
          have HR1 := Lib.hid (HR1.out.below hs)
          have HX2 := Lib.hid (HX2.out.below hs)
          have HR2 := Lib.hid (HR2.out.below hs)
          have HX3 := Lib.hid (HX3.out.below hs)
          have HR3 := Lib.hid (HR3.out.below hs)
          have hx : TokAt (wn.alloc (.cells #[.int .i64 k4, .string n4, .bool hn4, .string p4, .bool hp4, .string y4, .bool hy4, .bool q4, .slice A4 pn4 pc4, .bool sc4, .string d4, .int .i32 r4] 27)) wn.heap.size #[.int .i64 k4, .string n4, .bool hn4, .string p4, .bool hp4, .string y4, .bool hy4, .bool q4, .slice A4 pn4 pc4, .bool sc4, .string d4, .int .i32 r4] := tokAt_new wn _
          have hsa : Below wn.heap.size wn (wn.alloc (.cells #[.int .i64 k4, .string n4, .bool hn4, .string p4, .bool hp4, .string y4, .bool hy4, .bool q4, .slice A4 pn4 pc4, .bool sc4, .string d4, .int .i32 r4] 27)) := below_alloc (Below.refl _ _) _
          have HX4 := Lib.hid hx
          have HR4 := Lib.hid (ht.below hsa)
          have HBW := Lib.hid (below_next hbn hsa)
          have HX1 := Lib.hid (HX1.out.below hsa)
          have HR1 := Lib.hid (HR1.out.below hsa)
          have HX2 := Lib.hid (HX2.out.below hsa)
          have HR2 := Lib.hid (HR2.out.below hsa)
          have HX3 := Lib.hid (HX3.out.below hsa)
          have HR3 := Lib.hid (HR3.out.below hsa)
          have tX : (xX == xX) = true := beq_self_eq_true _
          have tY : (xY == xY) = true := beq_self_eq_true _
          have dX1 : decide (K0 ≤ xX) = true := decide_eq_true gX1
          have dX2 : decide (xX ≤ (s.size : Int)) = true := decide_eq_true gX2
          have dY1 : decide (K0 ≤ xY) = true := decide_eq_true gY1
          have dY2 : decide (xY ≤ (s.size : Int)) = true := decide_eq_true gY2
          clear hs hx hsa ht hbn
          go_simp
          repeat (first
            | refine wpList_load_wanted2 (by rfl) 27 _ rfl g1 rfl 27 #[.int .i64 k1, .string n1, .bool hn1, .string p1, .bool hp1, .string y1, .bool hy1, .bool q1, .slice A1 pn1 pc1, .bool sc1, .string d1, .int .i32 r1] (0, 0) _ HX1.out Tryz.underlying27 rfl (by kernel_rfl) ?_
            | refine wpList_load_wanted2 (by rfl) 27 _ rfl g2 rfl 27 #[.int .i64 k2, .string n2, .bool hn2, .string p2, .bool hp2, .string y2, .bool hy2, .bool q2, .slice A2 pn2 pc2, .bool sc2, .string d2, .int .i32 r2] (0, 0) _ HX2.out Tryz.underlying27 rfl (by kernel_rfl) ?_
            | refine wpList_load_wanted2 (by rfl) 27 _ rfl g3 rfl 27 #[.int .i64 k3, .string n3, .bool hn3, .string p3, .bool hp3, .string y3, .bool hy3, .bool q3, .slice A3 pn3 pc3, .bool sc3, .string d3, .int .i32 r3] (0, 0) _ HX3.out Tryz.underlying27 rfl (by kernel_rfl) ?_
            | refine wpList_load_wanted2 (by rfl) 27 _ rfl wn.heap.size rfl 27 #[.int .i64 k4, .string n4, .bool hn4, .string p4, .bool hp4, .string y4, .bool hy4, .bool q4, .slice A4 pn4 pc4, .bool sc4, .string d4, .int .i32 r4] (0, 0) _ HX4.out Tryz.underlying27 rfl (by kernel_rfl) ?_
            | go_values
            | go_skip
            | go_guarded
            | go_step
            | go_upon
            | go_back)
          generalize hWF : World.alloc _ _ = wf
          rw [hWF] at HX1 HX2 HX3 HX4 HR1 HR2 HR3 HR4 HBW
          clear hWF HX1 HX2
          generalize wn.heap.size = g4 at HX4 ⊢
          refine (sameTok wf HR1.out HR2.out).mono ?_
          rintro e w5 ⟨rfl, hs⟩
          have HX3 := Lib.hid (HX3.out.below hs)
          have HX4 := Lib.hid (HX4.out.below hs)
          have HR3 := Lib.hid (HR3.out.below hs)
          have HR4 := Lib.hid (HR4.out.below hs)
          have HBW := Lib.hid (below_next HBW.out hs)
          clear hs HR1 HR2
          go_simp
          repeat (first
            | refine wpList_load_wanted2 (by rfl) 27 _ rfl g3 rfl 27 #[.int .i64 k3, .string n3, .bool hn3, .string p3, .bool hp3, .string y3, .bool hy3, .bool q3, .slice A3 pn3 pc3, .bool sc3, .string d3, .int .i32 r3] (0, 0) _ HX3.out Tryz.underlying27 rfl (by kernel_rfl) ?_
            | refine wpList_load_wanted2 (by rfl) 27 _ rfl g4 rfl 27 #[.int .i64 k4, .string n4, .bool hn4, .string p4, .bool hp4, .string y4, .bool hy4, .bool q4, .slice A4 pn4 pc4, .bool sc4, .string d4, .int .i32 r4] (0, 0) _ HX4.out Tryz.underlying27 rfl (by kernel_rfl) ?_
            | go_values
            | go_skip
            | go_guarded
            | go_step
            | go_upon
            | go_back)
          refine (sameTok w5 HR3.out HR4.out).mono ?_
          rintro e w6 ⟨rfl, hs⟩
          have hbn := below_next HBW.out hs
          have HKn := Lib.hid (known02 m w6 (HC.out.below hbn) (carry HM.out hbn))
          have HBW := Lib.hid hbn
          clear hs hbn HX3 HX4 HR3 HR4
          go_wp2_with fail
          refine HKn.out.mono ?_
          rintro e w7 ⟨rfl, hs⟩
          go_wp2_with fail
          go_ret
          exact ⟨rfl, below_next HBW.out hs⟩
    · rw [decide_eq_false hlast] at HS3
      clear hs hlast
      go_enter Tryz.func7, Tryz.ntmps7
      go_wp2_with fail
      refine (HS1.out _).mono ?_
      rintro e w0 ⟨rfl, rfl⟩
      go_wp2_with fail
      refine (HS3.out _).mono ?_
      rintro e w0 ⟨rfl, rfl⟩
      go_wp2_with fail
      refine HK.out.mono ?_
      rintro e w4 ⟨rfl, hb⟩
      go_wp2_with fail
      go_ret
      exact ⟨rfl, hb⟩
  · rw [decide_eq_false hs] at HS1
    clear hs
    go_enter Tryz.func7, Tryz.ntmps7
    go_wp2_with fail
    refine (HS1.out _).mono ?_
    rintro e w0 ⟨rfl, rfl⟩
    go_wp2_with fail
    refine HK.out.mono ?_
    rintro e w4 ⟨rfl, hb⟩
    go_wp2_with fail
    go_ret
    exact ⟨rfl, hb⟩
end Go.Proofs.YtbacdfceiofahaaGreatDoor

namespace Go.Proofs.YtbacdfceiofahaaGreatDoor
open Go.ChangeShapes Go.WideShapes Go.ChangeAt Go.RowKit
set_option maxRecDepth 100000

def laidC : List (String × DataW Unit) := [("unicode/utf8.acceptRanges", Rows.laid_unicode_utf8_acceptRanges), ("thicket/text.controls", Rows.laid_thicket_text_controls), ("unicode/utf8.first", Rows.laid_unicode_utf8_first)]
theorem doorC_os (os : Os) : (World.laidAll Tryz.prog os laidC).os = os := World.laidAll_os _ _ _
theorem doorC_met (os : Os) (args : Array Value) : laidMetH Tryz.prog laidC ((World.laidAll Tryz.prog os laidC).forCall (fun _ _ => 0) ⟨#[], args, []⟩).memory := by
  rw [MakeChecks.laidMetH_plain _ _ _ (by kernel_rfl)]
  exact laidMet_laidAll _ (by kernel_rfl) (by kernel_rfl)

theorem gCtl : Tryz.prog.globalNamed "thicket/text.controls" = some 0 := by kernel_rfl
theorem tCtl : (Tryz.prog.globals[0]?).map (·.type) = some 176 := by kernel_rfl
theorem cCtl : Tryz.prog.cellsOf 21 = 1 := by kernel_rfl
theorem ctlD : (Rows.laid_thicket_text_controls : DataW Unit) = .agg (ctlT.map fun z => .lit (.int .i32 z)) := rfl

theorem ctl_of_laid {W : World} (h : laidMetH Tryz.prog laidC W) : CtlW W := by
  rw [MakeChecks.laidMetH_plain _ _ _ (by kernel_rfl)] at h
  obtain ⟨ps, ⟨g0, t0, cs0, f0, p0, q0, hg0, ht0, hv0, hd0, ⟨g1, t1, cs1, f1, p1, q1, hg1, ht1, hv1, hd1, _, _⟩, _⟩, _⟩ := h
  obtain rfl := Option.some.inj (gCtl.symm.trans hg1)
  obtain rfl := Option.some.inj (tCtl.symm.trans ht1)
  obtain ⟨xs, m1, rfl, hx1, hlen, hn, hel⟩ := DataW.trod_array Tryz.underlying176 hd1
  intro k hk
  have h1 := hel k hk
  rw [cCtl, Nat.mul_one] at h1
  have hxk : xs[k]? = some (xs[k]'(by omega)) := List.getElem?_eq_getElem (by omega)
  rw [hxk] at h1
  obtain ⟨z, e1, e2, _⟩ := DataW.trod_int Tryz.underlying21 h1
  have hz : z = ctlT.getD k 0 := by
    have hx2 := congrArg Prod.fst hx1
    rw [ctlD] at hx2
    simp only [DataW.agg.injEq] at hx2
    have h3 : (ctlT.map fun z => (DataW.lit (.int .i32 z) : DataW Unit))[k]? = (xs.map (·.1))[k]? := by rw [hx2]
    rw [List.getElem?_map, List.getElem?_map, hxk, e2] at h3
    have hk2 : k < ctlT.length := hk
    rw [List.getElem?_eq_getElem hk2] at h3
    simp at h3
    rw [List.getD_eq_getElem?_getD, List.getElem?_eq_getElem hk2]
    simpa using h3.symm
  rw [World.var?_cell hg1 hv1 k, ← hz]
  have h4 : (cs1.toList.drop k)[0]? = some (.int .i32 z) := by
    have := congrArg (fun l => l[0]?) e1
    simp only [List.getElem?_take] at this
    simpa using this
  rw [List.getElem?_drop, Nat.add_zero, Array.getElem?_toList] at h4
  exact h4

/-- A row whose start is said to hold more, with the shapes and the listed variables at hand. -/
theorem handedC {H : Type} {enc : TypeId × Value → H} {a : Assume} {os : Os} {f : FuncId} {fn : Func} {s : ChangeSpec} {conds : List PathCond} {apart fresh handsOn again : Bool}
    (own : ownKnob Tryz.prog.godebug = none) (started : os.Started) (noInit : Tryz.prog.inits.idxOf? f = none) (hfn : Tryz.prog.funcs[f]? = some fn)
    (witness : ∃ (w : World) (tape : Tape) (i : Input), w.os = os ∧ (w.forCall tape i).Shaped Tryz.prog ∧ i.vars = [] ∧ Input.okWide Tryz.prog (w.forCall tape i) .any w.heap.size f i ∧
      ((s.pre enc Tryz.prog fn conds apart (w.forCall tape i).memory i.args ∧ laidMetH Tryz.prog laidC (w.forCall tape i).memory) ∧ sizedMet enc Tryz.prog fn (OpenSpec.ofChange s) apart (w.forCall tape i).memory i.args) ∧ a.holds Tryz.prog (lone (Frame.enter Tryz.prog f i.args .normal) [] (w.forCall tape i)))
    (walk : ∀ (W : World) (base : Nat) (args : Array Value) (ds gs : List (DataW H)) (before : List MemPlace),
      (∀ (j : Nat) t v, fn.params[j]? = some t → args[j]? = some v → Value.okWide Tryz.prog W .any base t v) →
      DataW.Whole enc Tryz.prog fn.params.toList s.vars apart W args.toList ds gs before → W.ShapedOpen Tryz.prog → CtlW W →
      Calls Tryz.prog f args W fun e W' => ∃ v, e = .returned v ∧ s.post enc Tryz.prog fn apart fresh handsOn again W args v W') :
    ReturnsInHanded a Tryz.checked os f .any (fun w args => (s.pre enc Tryz.prog fn conds apart w args ∧ laidMetH Tryz.prog laidC w) ∧ sizedMet enc Tryz.prog fn (OpenSpec.ofChange s) apart w args) (s.post enc Tryz.prog fn apart fresh handsOn again) := by
  refine returnsInHanded_of_calls (C := Tryz.checked) own started (by exact noInit) witness ?_
  intro w tape i _ hsh _ hok hpre _
  obtain ⟨_, _, _, fn', hfn', _, _, _, _, hval⟩ := hok
  obtain rfl : fn' = fn := Option.some.inj (hfn'.symm.trans hfn)
  obtain ⟨⟨⟨ds, gs, before, hw, _⟩, hX⟩, _⟩ := hpre
  refine (walk (w.forCall tape i) w.heap.size i.args ds gs before hval (DataW.Whole.of_heap (w' := w.forCall tape i) (by rfl) hw) hsh (ctl_of_laid (laidMetH.of_heap (w' := w.forCall tape i) (by rfl) hX))).mono fun e W' ⟨v, he, hp⟩ => ?_
  subst he
  exact ChangeSpec.post_blind hp
end Go.Proofs.YtbacdfceiofahaaGreatDoor
