/-
  A token that is stored in a result's block.
  The document's reader of document type declarations.
-/
import Derived.Test.YtnfccckodgknjaaGreatDoorY46
import Derived.Laws.Tables
import Derived.Laws.Rows
import Derived.Test.YtnfccckodgknjaaGreatDoorY48
namespace Go.Proofs.YtnfccckodgknjaaGreatDoor
open Go.RowKit Go.Shelf Go.Lib
set_option maxHeartbeats 4000000
set_option maxRecDepth 100000

theorem TokAt.frz {w : World} {g : Nat} {cs : Array Value} (h : TokAt w g cs) : w.frozen? ⟨g, 0, none⟩ = false ∧ w.frozen? ⟨g, 1, none⟩ = false ∧ w.frozen? ⟨g, 2, none⟩ = false ∧ w.frozen? ⟨g, 3, none⟩ = false ∧ w.frozen? ⟨g, 4, none⟩ = false ∧ w.frozen? ⟨g, 5, none⟩ = false ∧ w.frozen? ⟨g, 6, none⟩ = false ∧ w.frozen? ⟨g, 7, none⟩ = false ∧ w.frozen? ⟨g, 8, none⟩ = false ∧ w.frozen? ⟨g, 9, none⟩ = false ∧ w.frozen? ⟨g, 10, none⟩ = false ∧ w.frozen? ⟨g, 11, none⟩ = false :=
  ⟨h.frozen 0, h.frozen 1, h.frozen 2, h.frozen 3, h.frozen 4, h.frozen 5, h.frozen 6, h.frozen 7, h.frozen 8, h.frozen 9, h.frozen 10, h.frozen 11⟩
/-- The empty token. -/
def tok0 : Array Value := #[.int .i64 0, .string ⟨#[]⟩, .bool false, .string ⟨#[]⟩, .bool false, .string ⟨#[]⟩, .bool false, .bool false, .slice none 0 0, .bool false, .string ⟨#[]⟩, .int .i32 0]
theorem retW {w W : World} {r : Nat} (hR : TokAt W r tok0) (hb : Below w.heap.size w W) (hr : w.heap.size ≤ r) (v0 v1 v2 v3 v4 v5 v6 v7 v8 v9 v10 v11 : Value) :
    ∃ w3, (((((((((((((W.setCell ⟨r, 0, none⟩ v0).setCell ⟨r, 1, none⟩ v1).setCell ⟨r, 2, none⟩ v2).setCell ⟨r, 3, none⟩ v3).setCell ⟨r, 4, none⟩ v4).setCell ⟨r, 5, none⟩ v5).setCell ⟨r, 6, none⟩ v6).setCell ⟨r, 7, none⟩ v7).setCell ⟨r, 8, none⟩ v8).setCell ⟨r, 9, none⟩ v9).setCell ⟨r, 10, none⟩ v10).setCell ⟨r, 11, none⟩ v11) = w3) ∧ TokAt w3 r #[v0, v1, v2, v3, v4, v5, v6, v7, v8, v9, v10, v11] ∧ Below w.heap.size w w3 ∧ But r W w3 :=
  ⟨_, rfl, st12_heap hR v0 v1 v2 v3 v4 v5 v6 v7 v8 v9 v10 v11, below_but hb (st12_but W r v0 v1 v2 v3 v4 v5 v6 v7 v8 v9 v10 v11) hr, st12_but W r v0 v1 v2 v3 v4 v5 v6 v7 v8 v9 v10 v11⟩
theorem retW2 {w W : World} {r : Nat} {c0 c1 c2 c3 c4 c5 c6 c7 c8 c9 c10 c11 : Value} (hR : TokAt W r #[c0, c1, c2, c3, c4, c5, c6, c7, c8, c9, c10, c11]) (hb : Below w.heap.size w W) (hr : w.heap.size ≤ r) (v0 v1 v2 v3 v4 v5 v6 v7 v8 v9 v10 v11 : Value) :
    ∃ w3, (((((((((((((W.setCell ⟨r, 0, none⟩ v0).setCell ⟨r, 1, none⟩ v1).setCell ⟨r, 2, none⟩ v2).setCell ⟨r, 3, none⟩ v3).setCell ⟨r, 4, none⟩ v4).setCell ⟨r, 5, none⟩ v5).setCell ⟨r, 6, none⟩ v6).setCell ⟨r, 7, none⟩ v7).setCell ⟨r, 8, none⟩ v8).setCell ⟨r, 9, none⟩ v9).setCell ⟨r, 10, none⟩ v10).setCell ⟨r, 11, none⟩ v11) = w3) ∧ TokAt w3 r #[v0, v1, v2, v3, v4, v5, v6, v7, v8, v9, v10, v11] ∧ Below w.heap.size w w3 ∧ But r W w3 :=
  ⟨_, rfl, st12_heap hR v0 v1 v2 v3 v4 v5 v6 v7 v8 v9 v10 v11, below_but hb (st12_but W r v0 v1 v2 v3 v4 v5 v6 v7 v8 v9 v10 v11) hr, st12_but W r v0 v1 v2 v3 v4 v5 v6 v7 v8 v9 v10 v11⟩
theorem below_two {w W : World} {g i j : Nat} {u v : Value} (h : Below w.heap.size w W) (hg : w.heap.size ≤ g) : Below w.heap.size w ((W.setCell ⟨g, i, none⟩ u).setCell ⟨g, j, none⟩ v) :=
  below_but (below_but h (But.set _ _ _ _) hg) (But.set _ _ _ _) hg
theorem retWb {W : World} {r : Nat} (hR : TokAt W r tok0) (v0 v1 v2 v3 v4 v5 v6 v7 v8 v9 v10 v11 : Value) :
    ∃ w3, (((((((((((((W.setCell ⟨r, 0, none⟩ v0).setCell ⟨r, 1, none⟩ v1).setCell ⟨r, 2, none⟩ v2).setCell ⟨r, 3, none⟩ v3).setCell ⟨r, 4, none⟩ v4).setCell ⟨r, 5, none⟩ v5).setCell ⟨r, 6, none⟩ v6).setCell ⟨r, 7, none⟩ v7).setCell ⟨r, 8, none⟩ v8).setCell ⟨r, 9, none⟩ v9).setCell ⟨r, 10, none⟩ v10).setCell ⟨r, 11, none⟩ v11) = w3) ∧ TokAt w3 r #[v0, v1, v2, v3, v4, v5, v6, v7, v8, v9, v10, v11] ∧ But r W w3 :=
  ⟨_, rfl, st12_heap hR v0 v1 v2 v3 v4 v5 v6 v7 v8 v9 v10 v11, st12_but W r v0 v1 v2 v3 v4 v5 v6 v7 v8 v9 v10 v11⟩
theorem but_but {b r : Nat} {w w2 w3 : World} (h : But b w w2) (k : But r w2 w3) (hr : w.heap.size ≤ r) : But b w w3 :=
  ⟨k.os.trans h.os, k.tape.trans h.tape, k.output.trans h.output, Nat.le_trans h.size k.size, fun j hj hne => (k.block j (Nat.lt_of_lt_of_le hj h.size) (fun e => by cases e; omega)).trans (h.block j hj hne)⟩
theorem but_drewN {b : Nat} {w w2 : World} (h : But b w w2) : But b w w2.drew := h.trans (But.of_below (Below.drew (Below.refl _ _)))
/-- What a method of the caller's cursor answers. -/
def MkRb (b k : Nat) (x : TokS × List UInt8 × Nat) (w : World) (e : Ending) (w' : World) : Prop :=
  ∃ v, e = .returned (.tuple #[v, .string (bl x.2.1), .int .i64 ((k + x.2.2 : Nat) : Int)]) ∧ TokRow w' v x.1 ∧ But b w w'
theorem TokAt.zero {w : World} {r : Nat} (h : TokAt w r tok0) : w.cell? ⟨r, 0, none⟩ = some (.int .i64 0) ∧ w.cell? ⟨r, 1, none⟩ = some (.string ⟨#[]⟩) ∧ w.cell? ⟨r, 2, none⟩ = some (.bool false) ∧ w.cell? ⟨r, 3, none⟩ = some (.string ⟨#[]⟩) ∧ w.cell? ⟨r, 4, none⟩ = some (.bool false) ∧ w.cell? ⟨r, 5, none⟩ = some (.string ⟨#[]⟩) ∧ w.cell? ⟨r, 6, none⟩ = some (.bool false) ∧ w.cell? ⟨r, 7, none⟩ = some (.bool false) ∧ w.cell? ⟨r, 8, none⟩ = some (.slice none 0 0) ∧ w.cell? ⟨r, 9, none⟩ = some (.bool false) ∧ w.cell? ⟨r, 10, none⟩ = some (.string ⟨#[]⟩) ∧ w.cell? ⟨r, 11, none⟩ = some (.int .i32 0) := TokAt.cells h
theorem setRow_but (w : World) (g : Nat) (cs : Array Value) : But g w (w.setRow g cs) :=
  ⟨rfl, rfl, rfl, by rw [size_setRow]; exact Nat.le_refl _, fun j _ hne => setRow_other w g j cs (fun e => hne (by rw [e]))⟩
/-- A whole token goes into a block; the world behind it under a name of its own. -/
theorem wpList_store_tok {P : Program} {ops : Array Oper} {rest : List Oper} {o : Oper} {a : Act} {w : World} {Q : Exit → Act → World → Prop} (hgd : o.guard = none) (ty : TypeId) (x y : Operand) (ho : o.op = .store ty x y)
    (g : Nat) (cells : Array Value) (hx : a.eval x = .pointer (some ⟨g, 0, none⟩)) (hy : a.eval y = .agg cells)
    (t : TypeId) (old : Array Value) (hg : w.heap[g]? = some (.cells old t (0, 0))) (hi : (P.info? ty).map (·.size) = some cells.size)
    (hold : old.size = cells.size) (h1 : cells.all (·.oneCell') = true)
    (h : ∀ w', w'.heap[g]? = some (.cells cells t (0, 0)) → But g w w' → wpList P ops Q rest (a.put o.dst undef) w') : wpList P ops Q (o :: rest) a w :=
  wpList_store_row hgd ty x y ho g cells hx hy t old hg hi hold h1 (h _ (setRow_heap w g old cells t (0, 0) hg) (setRow_but w g cells))
theorem oc12 (k1 r1 : Int) (n1 p1 y1 d1 : ByteArray) (hn1 hp1 hy1 q1 sc1 : Bool) (A1 : Option Addr) (pn1 pc1 : Nat) : (#[Value.int .i64 k1, .string n1, .bool hn1, .string p1, .bool hp1, .string y1, .bool hy1, .bool q1, .slice A1 pn1 pc1, .bool sc1, .string d1, .int .i32 r1] : Array Value).all (·.oneCell') = true := by simp [Value.oneCell']
theorem attrRow_but {w w' : World} {v : Value} {acc : AttL} {r : Nat} {cs : Array Value} {T : TypeId} {x : Bool} (h : AttrRow w v acc) (hr : w.heap[r]? = some (.cells cs T (0, 0))) (h2 : cs[2]? = some (.bool x)) (hb : But r w w') : AttrRow w' v acc := by
  obtain ⟨A, cap, rfl, hc⟩ := h
  refine ⟨A, cap, rfl, fun i hi => ?_⟩
  obtain ⟨g, hA, hg, c0, c1, c2⟩ := hc i hi
  obtain ⟨g0, hA0, _, _, _, d2⟩ := hc 0 (Nat.lt_of_le_of_lt (Nat.zero_le _) hi)
  have hgg : g0 = g := by
    rw [hA] at hA0
    injection hA0 with e
    injection e with e
    exact e.symm
  subst hgg
  have hne : g0 ≠ r := by
    rintro rfl
    rw [heap_cell hr, show 0 * 3 + 2 = 2 from rfl, h2] at d2
    injection d2 with d3
    cases d3
  have e : w'.heap[g0]? = w.heap[g0]? := hb.block g0 hg (fun e => hne (by cases e; rfl))
  have ec : ∀ o, w'.cell? ⟨g0, o, none⟩ = w.cell? ⟨g0, o, none⟩ := fun o => by simp [World.cell?, e]
  exact ⟨g0, hA, Nat.lt_of_lt_of_le hg hb.size, (ec _).trans c0, (ec _).trans c1, (ec _).trans c2⟩
theorem tokRow_but {w w' : World} {v : Value} {T : TokS} {r : Nat} {cs : Array Value} {t : TypeId} {x : Bool} (h : TokRow w v T) (hr : w.heap[r]? = some (.cells cs t (0, 0))) (h2 : cs[2]? = some (.bool x)) (hb : But r w w') : TokRow w' v T := by
  obtain ⟨av, e, ha, hz⟩ := h
  exact ⟨av, e, attrRow_but ha hr h2 hb, hz⟩
end Go.Proofs.YtnfccckodgknjaaGreatDoor

namespace Go.Proofs.YtnfccckodgknjaaGreatDoor
open Go.RowKit Go.Shelf Go.Lib
set_option maxHeartbeats 0
set_option maxRecDepth 100000

theorem sysR_no {T : DocT} {c : UInt8} {r : List UInt8} (h : quU c = false) : sysR T (c :: r) = (T.q, upTo62 (c :: r)) := by
  unfold sysR
  simp only
  rw [h, if_neg Bool.false_ne_true]
theorem sysR_f {T : DocT} {c : UInt8} {r V x : List UInt8} (h : quU c = true) (hi : idR c r = (V, x, false)) : sysR T (c :: r) = (DocT.q { T with sys := V, hasSys := true }, upTo62 x) := by
  unfold sysR
  simp only
  rw [if_pos h, hi]
  rfl
theorem sysR_e {T : DocT} {c : UInt8} {r V x : List UInt8} (h : quU c = true) (hi : idR c r = (V, x, true)) (hx : sk x = []) : sysR T (c :: r) = (DocT.q { T with sys := V, hasSys := true }, []) := by
  unfold sysR
  simp only
  rw [if_pos h, hi]
  simp only
  rw [if_pos trivial, hx]
theorem sysR_t {T : DocT} {c b : UInt8} {r V x y : List UInt8} (h : quU c = true) (hi : idR c r = (V, x, true)) (hx : sk x = b :: y) : sysR T (c :: r) = ({ T with sys := V, hasSys := true }, upTo62 (b :: y)) := by
  unfold sysR
  simp only
  rw [if_pos h, hi]
  simp only
  rw [if_pos trivial, hx]
theorem pubR_no {T : DocT} {c : UInt8} {r : List UInt8} (h : quU c = false) : pubR T (c :: r) = (T.q, upTo62 (c :: r)) := by
  unfold pubR
  simp only
  rw [h, if_neg Bool.false_ne_true]
theorem pubR_f {T : DocT} {c : UInt8} {r V x : List UInt8} (h : quU c = true) (hi : idR c r = (V, x, false)) : pubR T (c :: r) = (DocT.q { T with pub := V, hasPub := true }, upTo62 x) := by
  unfold pubR
  simp only
  rw [if_pos h, hi]
  rfl
theorem pubR_e {T : DocT} {c : UInt8} {r V x : List UInt8} (h : quU c = true) (hi : idR c r = (V, x, true)) (hx : sk x = []) : pubR T (c :: r) = sysR { T with pub := V, hasPub := true } [] := by
  unfold pubR
  simp only
  rw [if_pos h, hi]
  simp only
  rw [if_pos trivial, hx]
  rfl
theorem pubR_g {T : DocT} {c b : UInt8} {r V x y : List UInt8} (h : quU c = true) (hi : idR c r = (V, x, true)) (hx : sk x = b :: y) (hb : b = 62) : pubR T (c :: r) = ({ T with pub := V, hasPub := true }, y) := by
  unfold pubR
  simp only
  rw [if_pos h, hi]
  simp only
  rw [if_pos trivial, hx]
  simp only
  rw [if_pos hb]
theorem pubR_s {T : DocT} {c b : UInt8} {r V x y : List UInt8} (h : quU c = true) (hi : idR c r = (V, x, true)) (hx : sk x = b :: y) (hb : ¬ b = 62) : pubR T (c :: r) = sysR { T with pub := V, hasPub := true } (b :: y) := by
  unfold pubR
  simp only
  rw [if_pos h, hi]
  simp only
  rw [if_pos trivial, hx]
  simp only
  rw [if_neg hb]

theorem qSpacesAt (s : ByteArray) (j : Nat) (hj : j ≤ s.size) (hs : s.size ≤ 1000000) : ∃ i : Nat, j ≤ i ∧ i ≤ s.size ∧ sk (s.data.toList.drop j) = s.data.toList.drop i ∧
    ∀ W, Calls Tryz.prog 67 #[.string s, .int .i64 j] W fun e w' => e = .returned (.int .i64 (i : Nat)) ∧ w' = W := by
  refine ⟨j + runN (fun b => !spU b) (s.data.toList.drop j), by omega, ?_, ?_, fun W => qSpaces s j hj hs W⟩
  · have := runN_in (fun b => !spU b) s j
    omega
  · unfold sk
    rw [List.drop_drop]

/-- The token of a declaration in memory. -/
def tdc (d : Dt) : Array Value := #[.int .i64 1, .string d.name, .bool d.hn, .string d.pub, .bool d.hp, .string d.sys, .bool d.hs, .bool d.qk, .slice none 0 0, .bool false, .string ⟨#[]⟩, .int .i32 0]
def TD (w : World) (g : Nat) (d : Dt) : Prop := w.heap[g]? = some (.cells (tdc d) 38 (0, 0))
theorem TD.cells {w : World} {g : Nat} {d : Dt} (h : TD w g d) : w.cell? ⟨g, 0, none⟩ = some (.int .i64 1) ∧ w.cell? ⟨g, 1, none⟩ = some (.string d.name) ∧ w.cell? ⟨g, 2, none⟩ = some (.bool d.hn) ∧ w.cell? ⟨g, 3, none⟩ = some (.string d.pub) ∧ w.cell? ⟨g, 4, none⟩ = some (.bool d.hp) ∧ w.cell? ⟨g, 5, none⟩ = some (.string d.sys) ∧ w.cell? ⟨g, 6, none⟩ = some (.bool d.hs) ∧ w.cell? ⟨g, 7, none⟩ = some (.bool d.qk) ∧ w.cell? ⟨g, 8, none⟩ = some (.slice none 0 0) ∧ w.cell? ⟨g, 9, none⟩ = some (.bool false) ∧ w.cell? ⟨g, 10, none⟩ = some (.string ⟨#[]⟩) ∧ w.cell? ⟨g, 11, none⟩ = some (.int .i32 0) :=
  ⟨heap_cell h 0, heap_cell h 1, heap_cell h 2, heap_cell h 3, heap_cell h 4, heap_cell h 5, heap_cell h 6, heap_cell h 7, heap_cell h 8, heap_cell h 9, heap_cell h 10, heap_cell h 11⟩
theorem TD.cell {w : World} {g : Nat} {d : Dt} (h : TD w g d) (o : Nat) : w.cell? ⟨g, o, none⟩ = (tdc d)[o]? := heap_cell h o
theorem TD.fr {w : World} {g : Nat} {d : Dt} (h : TD w g d) (o : Nat) : w.frozen? ⟨g, o, none⟩ = false := heap_frozen h o
theorem TokAt.heap {w : World} {g : Nat} {cs : Array Value} (h : TokAt w g cs) : w.heap[g]? = some (.cells cs 38 (0, 0)) := h
theorem TD.lt {w : World} {g : Nat} {d : Dt} (h : TD w g d) : g < w.heap.size := (Array.getElem?_eq_some_iff.1 h).1
theorem TD.below {w w' : World} {g : Nat} {d : Dt} (h : TD w g d) (hb : Below w.heap.size w w') : TD w' g d := heap_below h hb
theorem TD.setName {w : World} {g : Nat} {d : Dt} (h : TD w g d) (V : ByteArray) : TD ((w.setCell ⟨g, 1, none⟩ (.string V)).setCell ⟨g, 2, none⟩ (.bool true)) g { d with name := V, hn := true } := heap_set (heap_set h 1 _) 2 _
theorem TD.setPub {w : World} {g : Nat} {d : Dt} (h : TD w g d) (V : ByteArray) : TD ((w.setCell ⟨g, 3, none⟩ (.string V)).setCell ⟨g, 4, none⟩ (.bool true)) g { d with pub := V, hp := true } := heap_set (heap_set h 3 _) 4 _
theorem TD.setSys {w : World} {g : Nat} {d : Dt} (h : TD w g d) (V : ByteArray) : TD ((w.setCell ⟨g, 5, none⟩ (.string V)).setCell ⟨g, 6, none⟩ (.bool true)) g { d with sys := V, hs := true } := heap_set (heap_set h 5 _) 6 _
theorem tokAt_two_set {w : World} {r g i j : Nat} {u v : Value} {cs : Array Value} (h : TokAt w r cs) (hne : r ≠ g) : TokAt ((w.setCell ⟨g, i, none⟩ u).setCell ⟨g, j, none⟩ v) r cs :=
  (h.but (But.set _ _ _ _) hne).but (But.set _ _ _ _) hne
/-- What stands behind a declaration's name. -/
def rest2 (t : List UInt8) : List UInt8 := sk ((sk t).drop (runN ewU (sk t)))
theorem noPub_nil {u : List UInt8} (h : u = []) : ¬ lowL (u.take 6) = sPublic := by subst h; decide
theorem noPub_62 {u : List UInt8} {c : UInt8} {r : List UInt8} (h : u = c :: r) (hc : c = 62) : ¬ lowL (u.take 6) = sPublic := by
  subst h; subst hc
  rw [List.take_succ_cons]
  intro e
  unfold lowL sPublic at e
  rw [List.map_cons] at e
  injection e with e1 _
  revert e1
  decide
theorem sk_gt {c : UInt8} {r : List UInt8} (h : c = 62) : sk (c :: r) = c :: r := by
  subst h
  unfold sk
  rw [runN_yes _ (by decide)]
  rfl
theorem rest2_nil {t : List UInt8} (h : sk t = []) : rest2 t = [] := by
  unfold rest2
  rw [h, List.drop_nil]
  rfl
theorem rest2_62 {t : List UInt8} {c : UInt8} {r : List UInt8} (h : sk t = c :: r) (hc : c = 62) : rest2 t = c :: r := by
  unfold rest2
  rw [h]
  subst hc
  rw [runN_yes _ (by decide), List.drop_zero, sk_gt rfl]
def QDoc (s : ByteArray) (k : Nat) (w : World) (e : Ending) (w' : World) : Prop :=
  ∃ (d : Dt) (N : Nat), e = .returned (.tuple #[tokD d, .int .i64 N]) ∧ k ≤ N ∧ N ≤ s.size ∧ docL (s.data.toList.drop k) = (dT d, s.data.toList.drop N) ∧ Below w.heap.size w w'
end Go.Proofs.YtnfccckodgknjaaGreatDoor
