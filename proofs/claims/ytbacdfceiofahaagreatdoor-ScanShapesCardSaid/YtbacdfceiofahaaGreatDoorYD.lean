/-
  A token that is stored in a result's block.
  ScanShapes: what any tag is like that was read.
  The frame of the rows that list the table of the controls as well.
-/
import Derived.Test.YtbacdfceiofahaaGreatDoorY46
import Derived.Laws.Tables
import Derived.Laws.Rows
import Derived.Test.YtbacdfceiofahaaGreatDoorY47
import Derived.Test.YtbacdfceiofahaaGreatDoorY41
import Derived.Test.YtbacdfceiofahaaGreatDoorY30
import Derived.Test.YtbacdfceiofahaaGreatDoorY29
namespace Go.Proofs.YtbacdfceiofahaaGreatDoor
open Go.RowKit Go.Shelf Go.Lib
set_option maxHeartbeats 4000000
set_option maxRecDepth 100000

theorem TokAt.frz {w : World} {g : Nat} {cs : Array Value} (h : TokAt w g cs) : w.frozen? ⟨g, 0, none⟩ = false ∧ w.frozen? ⟨g, 1, none⟩ = false ∧ w.frozen? ⟨g, 2, none⟩ = false ∧ w.frozen? ⟨g, 3, none⟩ = false ∧ w.frozen? ⟨g, 4, none⟩ = false ∧ w.frozen? ⟨g, 5, none⟩ = false ∧ w.frozen? ⟨g, 6, none⟩ = false ∧ w.frozen? ⟨g, 7, none⟩ = false ∧ w.frozen? ⟨g, 8, none⟩ = false ∧ w.frozen? ⟨g, 9, none⟩ = false ∧ w.frozen? ⟨g, 10, none⟩ = false ∧ w.frozen? ⟨g, 11, none⟩ = false :=
  ⟨h.frozen 0, h.frozen 1, h.frozen 2, h.frozen 3, h.frozen 4, h.frozen 5, h.frozen 6, h.frozen 7, h.frozen 8, h.frozen 9, h.frozen 10, h.frozen 11⟩
/-- The empty token. -/
def tok0 : Array Value := #[.int .i64 0, .string ⟨#[]⟩, .bool false, .string ⟨#[]⟩, .bool false, .string ⟨#[]⟩, .bool false, .bool false, .slice none 0 0, .bool false, .string ⟨#[]⟩, .int .i32 0]
theorem retW {w W : World} {r : Nat} (hR : TokAt W r tok0) (hb : Below w.heap.size w W) (hr : w.heap.size ≤ r) (v0 v1 v2 v3 v4 v5 v6 v7 v8 v9 v10 v11 : Value) :
    ∃ w3, (((((((((((((W.setCell ⟨r, 0, none⟩ v0).setCell ⟨r, 1, none⟩ v1).setCell ⟨r, 2, none⟩ v2).setCell ⟨r, 3, none⟩ v3).setCell ⟨r, 4, none⟩ v4).setCell ⟨r, 5, none⟩ v5).setCell ⟨r, 6, none⟩ v6).setCell ⟨r, 7, none⟩ v7).setCell ⟨r, 8, none⟩ v8).setCell ⟨r, 9, none⟩ v9).setCell ⟨r, 10, none⟩ v10).setCell ⟨r, 11, none⟩ v11) = w3) ∧ TokAt w3 r #[v0, v1, v2, v3, v4, v5, v6, v7, v8, v9, v10, v11] ∧ Below w.heap.size w w3 ∧ But r W w3 :=
  ⟨_, rfl, st12_heap hR v0 v1 v2 v3 v4 v5 v6 v7 v8 v9 v10 v11, below_but hb (st12_but W r v0 v1 v2 v3 v4 v5 v6 v7 v8 v9 v10 v11) hr, st12_but W r v0 v1 v2 v3 v4 v5 v6 v7 v8 v9 v10 v11⟩
theorem retW2 {w W : World} {r : Nat} {c0 c1 c2 c3 c4 c5 c6 c7 c8 c9 c10 c11 : Value} (hR : TokAt W r #[c0, c1, c2, c3, c4, c5, c6, c7, c8, c9, c10, c11]) (hb : Below w.heap.size w W) (hr : w.heap.size ≤ r) (v0 v1 v2 v3 v4 v5 v6 v7 v8 v9 v10 v11 : Value) :
    ∃ w3, (((((((((((((W.setCell ⟨r, 0, none⟩ v0).setCell ⟨r, 1, none⟩ v1).setCell ⟨r, 2, none⟩ v2).setCell ⟨r, 3, none⟩ v3).setCell ⟨r, 4, none⟩ v4).setCell ⟨r, 5, none⟩ v5).setCell ⟨r, 6, none⟩ v6).setCell ⟨r, 7, none⟩ v7).setCell ⟨r, 8, none⟩ v8).setCell ⟨r, 9, none⟩ v9).setCell ⟨r, 10, none⟩ v10).setCell ⟨r, 11, none⟩ v11) = w3) ∧ TokAt w3 r #[v0, v1, v2, v3, v4, v5, v6, v7, v8, v9, v10, v11] ∧ Below w.heap.size w w3 ∧ But r W w3 :=
  ⟨_, rfl, st12_heap hR v0 v1 v2 v3 v4 v5 v6 v7 v8 v9 v10 v11, below_but hb (st12_but W r v0 v1 v2 v3 v4 v5 v6 v7 v8 v9 v10 v11) hr, st12_but W r v0 v1 v2 v3 v4 v5 v6 v7 v8 v9 v10 v11⟩
theorem below_two {w W : World} {g i j : Nat} {u v : Value} (h : Below w.heap.size w W) (hg : w.heap.size ≤ g) : Below w.heap.size w ((W.setCell ⟨g, i, none⟩ u).setCell ⟨g, j, none⟩ v) :=
  below_but (below_but h (But.set _ _ _ _) hg) (But.set _ _ _ _) hg
theorem retWb {W : World} {r : Nat} (hR : TokAt W r tok0) (v0 v1 v2 v3 v4 v5 v6 v7 v8 v9 v10 v11 : Value) :
    ∃ w3, (((((((((((((W.setCell ⟨r, 0, none⟩ v0).setCell ⟨r, 1, none⟩ v1).setCell ⟨r, 2, none⟩ v2).setCell ⟨r, 3, none⟩ v3).setCell ⟨r, 4, none⟩ v4).setCell ⟨r, 5, none⟩ v5).setCell ⟨r, 6, none⟩ v6).setCell ⟨r, 7, none⟩ v7).setCell ⟨r, 8, none⟩ v8).setCell ⟨r, 9, none⟩ v9).setCell ⟨r, 10, none⟩ v10).setCell ⟨r, 11, none⟩ v11) = w3) ∧ TokAt w3 r #[v0, v1, v2, v3, v4, v5, v6, v7, v8, v9, v10, v11] ∧ But r W w3 :=
  ⟨_, rfl, st12_heap hR v0 v1 v2 v3 v4 v5 v6 v7 v8 v9 v10 v11, st12_but W r v0 v1 v2 v3 v4 v5 v6 v7 v8 v9 v10 v11⟩
theorem but_but {b r : Nat} {w w2 w3 : World} (h : But b w w2) (k : But r w2 w3) (hr : w.heap.size ≤ r) : But b w w3 :=
  ⟨k.os.trans h.os, k.tape.trans h.tape, k.output.trans h.output, Nat.le_trans h.size k.size, fun j hj hne => (k.block j (Nat.lt_of_lt_of_le hj h.size) (fun e => by cases e; omega)).trans (h.block j hj hne)⟩
theorem but_drewN {b : Nat} {w w2 : World} (h : But b w w2) : But b w w2.drew := h.trans (But.of_below (Below.drew (Below.refl _ _)))
/-- What a method of the caller's cursor answers. -/
def MkRb (b k : Nat) (x : TokS × List UInt8 × Nat) (w : World) (e : Ending) (w' : World) : Prop :=
  ∃ v, e = .returned (.tuple #[v, .string (bl x.2.1), .int .i64 ((k + x.2.2 : Nat) : Int)]) ∧ TokRow w' v x.1 ∧ But b w w'
theorem TokAt.zero {w : World} {r : Nat} (h : TokAt w r tok0) : w.cell? ⟨r, 0, none⟩ = some (.int .i64 0) ∧ w.cell? ⟨r, 1, none⟩ = some (.string ⟨#[]⟩) ∧ w.cell? ⟨r, 2, none⟩ = some (.bool false) ∧ w.cell? ⟨r, 3, none⟩ = some (.string ⟨#[]⟩) ∧ w.cell? ⟨r, 4, none⟩ = some (.bool false) ∧ w.cell? ⟨r, 5, none⟩ = some (.string ⟨#[]⟩) ∧ w.cell? ⟨r, 6, none⟩ = some (.bool false) ∧ w.cell? ⟨r, 7, none⟩ = some (.bool false) ∧ w.cell? ⟨r, 8, none⟩ = some (.slice none 0 0) ∧ w.cell? ⟨r, 9, none⟩ = some (.bool false) ∧ w.cell? ⟨r, 10, none⟩ = some (.string ⟨#[]⟩) ∧ w.cell? ⟨r, 11, none⟩ = some (.int .i32 0) := TokAt.cells h
theorem setRow_but (w : World) (g : Nat) (cs : Array Value) : But g w (w.setRow g cs) :=
  ⟨rfl, rfl, rfl, by rw [size_setRow]; exact Nat.le_refl _, fun j _ hne => setRow_other w g j cs (fun e => hne (by rw [e]))⟩
/-- A whole token goes into a block; the world behind it under a name of its own. -/
theorem wpList_store_tok {P : Program} {ops : Array Oper} {rest : List Oper} {o : Oper} {a : Act} {w : World} {Q : Exit → Act → World → Prop} (hgd : o.guard = none) (ty : TypeId) (x y : Operand) (ho : o.op = .store ty x y)
    (g : Nat) (cells : Array Value) (hx : a.eval x = .pointer (some ⟨g, 0, none⟩)) (hy : a.eval y = .agg cells)
    (t : TypeId) (old : Array Value) (hg : w.heap[g]? = some (.cells old t (0, 0))) (hi : (P.info? ty).map (·.size) = some cells.size)
    (hold : old.size = cells.size) (h1 : cells.all (·.oneCell') = true)
    (h : ∀ w', w'.heap[g]? = some (.cells cells t (0, 0)) → But g w w' → wpList P ops Q rest (a.put o.dst undef) w') : wpList P ops Q (o :: rest) a w :=
  wpList_store_row hgd ty x y ho g cells hx hy t old hg hi hold h1 (h _ (setRow_heap w g old cells t (0, 0) hg) (setRow_but w g cells))
theorem oc12 (k1 r1 : Int) (n1 p1 y1 d1 : ByteArray) (hn1 hp1 hy1 q1 sc1 : Bool) (A1 : Option Addr) (pn1 pc1 : Nat) : (#[Value.int .i64 k1, .string n1, .bool hn1, .string p1, .bool hp1, .string y1, .bool hy1, .bool q1, .slice A1 pn1 pc1, .bool sc1, .string d1, .int .i32 r1] : Array Value).all (·.oneCell') = true := by simp [Value.oneCell']
theorem attrRow_but {w w' : World} {v : Value} {acc : AttL} {r : Nat} {cs : Array Value} {T : TypeId} {x : Bool} (h : AttrRow w v acc) (hr : w.heap[r]? = some (.cells cs T (0, 0))) (h2 : cs[2]? = some (.bool x)) (hb : But r w w') : AttrRow w' v acc := by
  obtain ⟨A, cap, rfl, hc⟩ := h
  refine ⟨A, cap, rfl, fun i hi => ?_⟩
  obtain ⟨g, hA, hg, c0, c1, c2⟩ := hc i hi
  obtain ⟨g0, hA0, _, _, _, d2⟩ := hc 0 (Nat.lt_of_le_of_lt (Nat.zero_le _) hi)
  have hgg : g0 = g := by
    rw [hA] at hA0
    injection hA0 with e
    injection e with e
    exact e.symm
  subst hgg
  have hne : g0 ≠ r := by
    rintro rfl
    rw [heap_cell hr, show 0 * 3 + 2 = 2 from rfl, h2] at d2
    injection d2 with d3
    cases d3
  have e : w'.heap[g0]? = w.heap[g0]? := hb.block g0 hg (fun e => hne (by cases e; rfl))
  have ec : ∀ o, w'.cell? ⟨g0, o, none⟩ = w.cell? ⟨g0, o, none⟩ := fun o => by simp [World.cell?, e]
  exact ⟨g0, hA, Nat.lt_of_lt_of_le hg hb.size, (ec _).trans c0, (ec _).trans c1, (ec _).trans c2⟩
theorem tokRow_but {w w' : World} {v : Value} {T : TokS} {r : Nat} {cs : Array Value} {t : TypeId} {x : Bool} (h : TokRow w v T) (hr : w.heap[r]? = some (.cells cs t (0, 0))) (h2 : cs[2]? = some (.bool x)) (hb : But r w w') : TokRow w' v T := by
  obtain ⟨av, e, ha, hz⟩ := h
  exact ⟨av, e, attrRow_but ha hr h2 hb, hz⟩
end Go.Proofs.YtbacdfceiofahaaGreatDoor

namespace Go.Proofs.YtbacdfceiofahaaGreatDoor
open Go.RowKit Go.Shelf Go.Lib
set_option maxHeartbeats 4000000
set_option maxRecDepth 100000

theorem shape_parts {b : UInt8} (h : shapeB b = true) : spB (b.toNat : Int) = false ∧ upB (b.toNat : Int) = false ∧ ((b.toNat : Int) == 0) = false ∧ ((b.toNat : Int) == 47) = false ∧ ((b.toNat : Int) == 62) = false := by
  have key : ∀ k : Fin 256, shapeB (UInt8.ofNat k.val) = true → spB ((UInt8.ofNat k.val).toNat : Int) = false ∧ upB ((UInt8.ofNat k.val).toNat : Int) = false ∧ (((UInt8.ofNat k.val).toNat : Int) == 0) = false ∧ (((UInt8.ofNat k.val).toNat : Int) == 47) = false ∧ (((UInt8.ofNat k.val).toNat : Int) == 62) = false := by decide +kernel
  have e : UInt8.ofNat b.toNat = b := UInt8.ofNat_toNat
  have h2 := key ⟨b.toNat, b.toNat_lt⟩
  simp only [e] at h2
  exact h2 h
theorem kshape (s : ByteArray) (hz : s.size ≤ 10000000) (h : shapeL s.data.toList = true) (w : World) : Calls Tryz.prog 47 #[.string s] w fun e w' => e = .returned (.bool true) ∧ w' = w := by
  have HSP := Lib.hid (fun (b : Int) W => rSpace b W)
  have HUP := Lib.hid (fun (b : Int) W => rUpper b W)
  have HH := Lib.hid (fun j (hj : j < s.size) => shape_parts (List.all_eq_true.1 h (s[j]'hj) (mem_byte s j hj)))
  have hz2 : (s.size : Int) ≤ 10000000 := by omega
  clear h hz
  go_enter Tryz.func47, Tryz.ntmps47
  go_wp2_with fail
  go_loop [3] (fun i => ∃ j : Nat, j ≤ s.size ∧ i = .int .i64 j) (fun i => s.size - (intOf i).toNat)
  case atStart => exact ⟨0, Nat.zero_le _, rfl⟩
  case round =>
    obtain ⟨j, hj, rfl⟩ := hrel
    by_cases hlt : j < s.size
    · have hI : (j : Int) < (s.size : Int) := by omega
      obtain ⟨p1, p2, p3, p4, p5⟩ := HH.out j hlt
      have H1 := Lib.hid (fun W => HSP.out ((s[j]'hlt).toNat : Int) W)
      have H2 := Lib.hid (fun W => HUP.out ((s[j]'hlt).toNat : Int) W)
      rw [p1] at H1
      rw [p2] at H2
      clear p1 p2
      go_wp2_with fail
      refine (H1.out _).mono ?_
      rintro e w2 ⟨rfl, rfl⟩
      go_wp2_with fail
      refine (H2.out _).mono ?_
      rintro e w2 ⟨rfl, rfl⟩
      go_wp2_with fail
      go_round
      case rel => exact ⟨j + 1, by omega, by go_num⟩
      case measure => simp [intOf]; omega
    · have hI2 : ¬ (j : Int) < (s.size : Int) := by omega
      go_wp2_with fail
      go_ret
      exact ⟨rfl, rfl⟩
theorem attrRow_take {w : World} {A : Option Addr} {cap i : Nat} {acc : AttL} (h : AttrRow w (.slice A acc.length cap) acc) (hi : i ≤ acc.length) (cap' : Nat) : AttrRow w (.slice A i cap') (acc.take i) := by
  obtain ⟨A', c, e, hc⟩ := h
  injection e with e1 e2 e3
  subst e1
  refine ⟨A, cap', by rw [List.length_take, Nat.min_eq_left hi], fun k hk => ?_⟩
  have hk2 : k < acc.length := by rw [List.length_take] at hk; omega
  obtain ⟨g, h1, h2, c0, c1, c2⟩ := hc k hk2
  refine ⟨g, h1, h2, c0, ?_, ?_⟩
  · rw [List.getElem_take]; exact c1
  · rw [List.getElem_take]; exact c2
theorem has_no (s : ByteArray) (h : ∀ x ∈ s.data.toList, x ≠ 0) : allB (fun b => !(b == (0 : Int))) s = true := by
  unfold allB
  refine List.all_eq_true.2 fun x hx => ?_
  have hx2 := h x hx
  have : ¬ ((x.toNat : Int) = 0) := fun e => hx2 (UInt8.toNat_inj.1 (by show x.toNat = 0; omega))
  simpa using this

/-- How long names and values of attributes are. -/
def AccSz (B : Nat) (acc : AttL) : Prop := ∀ p ∈ acc, p.1.length ≤ B ∧ p.2.length ≤ B
theorem accSz_add {B : Nat} {acc : AttL} {n v : List UInt8} (h : AccSz B acc) (h1 : n.length ≤ B) (h2 : v.length ≤ B) : AccSz B (addL acc n v) := by
  unfold addL
  split
  · exact h
  · intro p hp
    rcases List.mem_append.1 hp with hp | hp
    · exact h p hp
    · obtain rfl : p = (n, v) := by simpa using hp
      exact ⟨h1, h2⟩
theorem vaL_sz {t v x : List UInt8} (h : vaL (refL lgL true) t = some (v, x)) : v.length ≤ 404 * t.length := by
  unfold vaL at h
  have hs := sk_len t
  generalize sk t = u at h hs
  cases u with
  | nil => simp at h
  | cons c r =>
    simp only at h
    split at h
    · split at h
      · simp only [Option.some.injEq, Prod.mk.injEq] at h
        have e := refL_res lgOk true (r.take (runN (fun b => b == c) r))
        rw [h.1, List.length_take] at e
        simp at hs
        omega
      · simp at h
    · split at h
      · simp only [Option.some.injEq, Prod.mk.injEq] at h
        have e := refL_res lgOk true ((c :: r).take (runN ewU (c :: r)))
        rw [h.1, List.length_take] at e
        omega
      · simp at h
theorem atName_sz (b : UInt8) (r : List UInt8) : (atName b r).length ≤ 3 * (r.length + 1) := by
  unfold atName lowL
  rw [List.length_map]
  have e := nulL_len (b :: r.take (runN eqU r))
  rw [List.length_cons, List.length_take] at e
  omega
theorem atF_sz (B : Nat) : ∀ (n : Nat) (acc l : AttL) (f : Bool) (t x : List UInt8), 404 * t.length ≤ B → AccSz B acc → atF (refL lgL true) n acc t = some (l, f, x) → AccSz B l
  | 0, _, _, _, _, _, _, _, h => by cases h
  | n + 1, acc, l, f, t, x, hb, ha, h => by
    unfold atF at h
    have hsl := sk_len t
    cases hs : sk t with
    | nil => rw [hs] at h; cases h
    | cons b r =>
      rw [hs] at h hsl
      rw [List.length_cons] at hsl
      simp only at h
      by_cases h62 : b = 62
      · rw [if_pos h62] at h
        simp only [Option.some.injEq, Prod.mk.injEq] at h
        rw [← h.1]; exact ha
      rw [if_neg h62] at h
      by_cases h47 : b = 47
      · rw [if_pos h47] at h
        split at h
        · simp only [Option.some.injEq, Prod.mk.injEq] at h
          rw [← h.1]; exact ha
        · exact atF_sz B n acc l f r x (by omega) ha h
      rw [if_neg h47] at h
      have hn := atName_sz b r
      have hr := atRest_len r
      split at h
      · cases hv : vaL (refL lgL true) ((atRest r).drop 1) with
        | none => rw [hv] at h; cases h
        | some p =>
          rw [hv] at h
          simp only at h
          have e1 := vaL_sz (show vaL (refL lgL true) _ = some (p.1, p.2) from hv)
          have e2 := vaL_len (show vaL (refL lgL true) _ = some (p.1, p.2) from hv)
          rw [List.length_drop] at e1 e2
          exact atF_sz B n _ l f p.2 x (by omega) (accSz_add ha (by omega) (by omega)) h
      · exact atF_sz B n _ l f _ x (by omega) (accSz_add ha (by omega) (by simp)) h
theorem atL_sz {B : Nat} {l : AttL} {f : Bool} {t x : List UInt8} (hb : 404 * t.length ≤ B) (h : atL (refL lgL true) t = some (l, f, x)) : AccSz B l :=
  atF_sz B _ [] l f t x hb (by intro p hp; cases hp) h

theorem lawShapes (s : ByteArray) (a : Int) (en : Bool) (m : Int) (w : World) (hm : w.cell? ⟨1, 0, none⟩ = some (.int .i64 m)) (hc : CtlW w) :
    Calls Tryz.prog 9 #[.string s, .int .i64 a, .bool en] w fun e w' => e = .returned (.bool true) ∧ Below w.heap.size w w' := by
  have HM := Lib.hid hm
  have HC := Lib.hid hc
  have HS1 := Lib.hid (small02 s)
  have HK := Lib.hid (known02 m w hc hm)
  clear hm hc
  by_cases h1 : s.size ≤ 4096
  · rw [decide_eq_true h1] at HS1
    have H1 := Lib.hid h1
    have D1 := Lib.hid (fun W hc hm => tagC lgL (Lib.hid lgOk) s a en m (by omega) W hc hm)
    clear h1
    go_enter Tryz.func9, Tryz.ntmps9
    go_wp2_with fail
    refine (HS1.out w).mono ?_
    rintro e w1 ⟨rfl, rfl⟩
    go_wp2_with fail
    refine (D1.out w1 HC.out HM.out).mono ?_
    rintro e w2 ⟨tk, cl, N, rfl, hb2, _, hN, hor⟩
    have HB2 := Lib.hid hb2
    clear hb2 hN
    rcases hor with ⟨rfl, rfl, rfl, _⟩ | ⟨rfl, acc, sc, v, hat, hrow, hal, rfl⟩
    · unfold tokA
      have tn : ((s.size : Int) == (s.size : Int)) = true := beq_self_eq_true _
      go_wp2_with fail
      generalize hW : World.alloc _ _ = w3
      have hs3 : Below w2.heap.size w2 w3 := by rw [← hW]; exact below_alloc (Below.refl _ _) _
      have HB3 := Lib.hid (below_next HB2.out hs3)
      clear hW hs3
      refine (sameTok w3 (tokRow_plain w3 {} rfl) (tokRow_plain w3 {} rfl)).mono ?_
      rintro e w4 ⟨rfl, hs⟩
      have hb4 := below_next HB3.out hs
      have HKn := Lib.hid (known02 m w4 (HC.out.below hb4) (carry HM.out hb4))
      have HB4 := Lib.hid hb4
      clear hs hb4
      go_wp2_with fail
      refine HKn.out.mono ?_
      rintro e w5 ⟨rfl, hs⟩
      go_wp2_with fail
      go_ret
      exact ⟨rfl, below_next HB4.out hs⟩
    · obtain ⟨nm, hnm⟩ : ∃ nm, nm = bl (tgName (tlS s a)) := ⟨_, rfl⟩
      have hns : shapeL nm.data.toList = true := by rw [hnm]; exact shape_tg _
      have hnz : nm.size ≤ 10000000 := by
        rw [hnm, bl_size]
        unfold tgName lowL
        rw [List.length_map]
        have e1 := nulL_len ((tlS s a).take (runN enU (tlS s a)))
        have e3 : (tlS s a).length = s.size - clip s a := by unfold tlS; rw [List.length_drop, size_list]
        have e2 : ((tlS s a).take (runN enU (tlS s a))).length ≤ s.size := by rw [List.length_take]; omega
        have := H1.out
        omega
      have HSH := Lib.hid (fun W => kshape nm hnz hns W)
      have HOK := Lib.hid (atL_ok hat)
      have hsz : AccSz 1700000 acc := by
        refine atL_sz ?_ hat
        have e3 : (tgRest (tlS s a)).length ≤ s.size := by unfold tgRest tlS; rw [List.length_drop, List.length_drop, size_list]; omega
        have := H1.out
        omega
      have HSZ := Lib.hid hsz
      clear hsz
      rw [← hnm]
      obtain ⟨A, cap, hv, hcap⟩ : ∃ A cap, v = .slice A acc.length cap ∧ acc.length ≤ cap := by
        rcases hrow.2 with ⟨e, h0⟩ | ⟨g, cap, cur, e, _, _, hc, _⟩
        · exact ⟨none, 0, by rw [h0]; exact e, by omega⟩
        · exact ⟨some ⟨g, 0, none⟩, cap, e, hc⟩
      subst hv
      have HCAP := Lib.hid hcap
      clear hcap
      have HROW := Lib.hid (attrRow_of hrow)
      have HAL := Lib.hid hal
      clear hat hrow hal hnm hns hnz
      cases en with
      | true =>
        unfold tokA
        simp only [if_true]
        go_wp2_with fail
        generalize hW : World.alloc _ _ = w3
        have hx : TokAt w3 w2.heap.size #[.int .i64 3, .string nm, .bool false, .string ⟨#[]⟩, .bool false, .string ⟨#[]⟩, .bool false, .bool false, .slice none 0 0, .bool false, .string ⟨#[]⟩, .int .i32 0] := by rw [← hW]; exact tokAt_new w2 _
        have hb3 : Below w1.heap.size w1 w3 := by rw [← hW]; exact below_alloc HB2.out _
        have HB3 := Lib.hid hb3
        obtain ⟨x0, x1, x2, x3, x4, x5, x6, x7, x8, x9, x10, x11⟩ := hx.cells
        clear hW hx hb3
        generalize w2.heap.size = g1 at x0 x1 x2 x3 x4 x5 x6 x7 x8 x9 x10 x11 ⊢
        refine (HSH.out _).mono ?_
        rintro e w4 ⟨rfl, rfl⟩
        go_wp2_with fail
        go_loop [10] (fun i => i = .int .i64 0) (fun _ => 0)
        case atStart => rfl
        case round =>
          subst hrel
          have HKn := Lib.hid (known02 m _ (HC.out.below HB3.out) (carry HM.out HB3.out))
          go_wp2_with fail
          refine HKn.out.mono ?_
          rintro e w5 ⟨rfl, hs⟩
          go_wp2_with fail
          go_ret
          exact ⟨rfl, below_next HB3.out hs⟩
      | false =>
        unfold tokA
        simp only [if_false, Bool.false_eq_true]
        go_wp2_with fail
        generalize hW : World.alloc _ _ = w3
        have hx : TokAt w3 w2.heap.size #[.int .i64 2, .string nm, .bool false, .string ⟨#[]⟩, .bool false, .string ⟨#[]⟩, .bool false, .bool false, .slice A acc.length cap, .bool sc, .string ⟨#[]⟩, .int .i32 0] := by rw [← hW]; exact tokAt_new w2 _
        have hb23 : Below w2.heap.size w2 w3 := by rw [← hW]; exact below_alloc (Below.refl _ _) _
        have hb3 : Below w1.heap.size w1 w3 := below_next HB2.out hb23
        have HROW3 := Lib.hid (HROW.out.below hb23)
        have HB3 := Lib.hid hb3
        obtain ⟨x0, x1, x2, x3, x4, x5, x6, x7, x8, x9, x10, x11⟩ := hx.cells
        have hg1 : w2.heap.size < w3.heap.size := by
          subst hW
          show w2.heap.size < (w2.heap.push _).size
          rw [Array.size_push]; omega
        clear hW hx hb3 hb23
        generalize w2.heap.size = g1 at x0 x1 x2 x3 x4 x5 x6 x7 x8 x9 x10 x11 hg1 ⊢
        have HG1 := Lib.hid hg1
        have X8 := Lib.hid x8
        obtain ⟨n, hn⟩ : ∃ n, n = acc.length := ⟨_, rfl⟩
        rw [← hn] at x8 ⊢
        have HN := Lib.hid hn
        have hzI : (n : Int) ≤ 4096 := by have := HAL.out; have := H1.out; omega
        go_wp2_with fail
        refine (HSH.out _).mono ?_
        rintro e w4 ⟨rfl, rfl⟩
        go_wp2_with fail
        go_loopw [10] (fun i wr => ∃ k : Nat, k ≤ n ∧ i = .int .i64 k ∧ Below w4.heap.size w4 wr) (fun i _ => n - (intOf i).toNat)
        case atStart => exact ⟨0, Nat.zero_le _, rfl, Below.refl _ _⟩
        case round =>
          obtain ⟨k, hk, rfl, hB⟩ := hrel
          have HB := Lib.hid hB
          replace x8 := (hB.cell (p := ⟨g1, 8, none⟩) HG1.out).trans x8
          by_cases hlt : k < n
          · have hI : (k : Int) < (n : Int) := by omega
            have hla : k < acc.length := by rw [← HN.out]; exact hlt
            obtain ⟨A2, cap2, he, hcs⟩ := HROW3.out
            injection he with he1 he2 he3
            subst he1
            obtain ⟨g, rfl, hg, c0, c1, c2⟩ := hcs k hla
            replace c0 := (hB.cell (p := ⟨g, k * 3, none⟩) hg).trans c0
            replace c1 := (hB.cell (p := ⟨g, k * 3 + 1, none⟩) hg).trans c1
            replace c2 := (hB.cell (p := ⟨g, k * 3 + 2, none⟩) hg).trans c2
            obtain ⟨xn, hxn⟩ : ∃ x, x = bl (acc[k]'hla).1 := ⟨_, rfl⟩
            obtain ⟨xv, hxv⟩ : ∃ x, x = bl (acc[k]'hla).2 := ⟨_, rfl⟩
            rw [← hxn] at c1
            rw [← hxv] at c2
            clear hcs hg he3
            have hxl : xn.data.toList = (acc[k]'hla).1 := by rw [hxn]; rfl
            have hvl : xv.data.toList = (acc[k]'hla).2 := by rw [hxv]; rfl
            have hmem := List.getElem_mem hla
            have q1 := (HOK.out.1 _ hmem)
            have q2 := HSZ.out _ hmem
            have hem : (xn.toList == []) = false := by
              rw [ByteArray.toList_eq, hxl]
              cases hq : (acc[k]'hla).1 with
              | nil => exact absurd hq q1.1
              | cons _ _ => rfl
            have HSX := Lib.hid (fun W => kshape xn (by rw [hxn, bl_size]; omega) (by rw [hxl]; exact q1.2.1) W)
            have HHV := Lib.hid (fun W => rHas xv 0 (by rw [hxv, bl_size]; unfold maxLen; omega) W)
            rw [has_no xv (by rw [hvl]; exact q1.2.2)] at HHV
            have HKL : Hid (knownL (acc.take k) xn.data.toList = false) := Lib.hid (by rw [hxl]; exact HOK.out.2 k hla)
            clear hxn hxv hxl hvl hmem q1 q2
            go_wp2_with fail
            generalize hW : World.alloc _ _ = w5
            have hy : w5.heap[wr.heap.size]? = some (.cells #[.int .i64 0, .string xn, .string xv] 60 (0, 0)) := by
              rw [← hW]
              show (wr.heap.push _)[wr.heap.size]? = _
              exact Array.getElem?_push_size
            have y0 : w5.cell? ⟨wr.heap.size, 0, none⟩ = some (.int .i64 0) := heap_cell hy 0
            have y1 : w5.cell? ⟨wr.heap.size, 1, none⟩ = some (.string xn) := heap_cell hy 1
            have y2 : w5.cell? ⟨wr.heap.size, 2, none⟩ = some (.string xv) := heap_cell hy 2
            have hb5 : Below wr.heap.size wr w5 := by rw [← hW]; exact below_alloc (Below.refl _ _) _
            have hgw : wr.heap.size < w5.heap.size := (Array.getElem?_eq_some_iff.1 hy).1
            have HGW := Lib.hid hgw
            replace x8 := (hb5.cell (p := ⟨g1, 8, none⟩) (Nat.lt_of_lt_of_le HG1.out hB.size)).trans x8
            have HB5 := Lib.hid (below_next hB hb5)
            have HROW5 := Lib.hid (HROW3.out.below HB5.out)
            generalize wr.heap.size = g2 at y0 y1 y2 hgw HGW ⊢
            clear hW hy hB hb5 HB c0 c1 c2
            have hgg : g1 < w5.heap.size := Nat.lt_of_lt_of_le HG1.out HB5.out.size
            have CS : Hid (∀ w', (w'.cell? ⟨g2, 0, none⟩ = some (.int .i64 0) ∧ w'.cell? ⟨g2, 1, none⟩ = some (.string xn) ∧ w'.cell? ⟨g2, 2, none⟩ = some (.string xv) ∧ w'.cell? ⟨g1, 8, none⟩ = some (.slice (some ⟨g, 0, none⟩) n cap) ∧ g2 < w'.heap.size ∧ g1 < w'.heap.size ∧ Below w5.heap.size w5 w') → Calls Tryz.prog 47 #[.string xn] w' fun e w2 => e = .returned (.bool true) ∧ (w2.cell? ⟨g2, 0, none⟩ = some (.int .i64 0) ∧ w2.cell? ⟨g2, 1, none⟩ = some (.string xn) ∧ w2.cell? ⟨g2, 2, none⟩ = some (.string xv) ∧ w2.cell? ⟨g1, 8, none⟩ = some (.slice (some ⟨g, 0, none⟩) n cap) ∧ g2 < w2.heap.size ∧ g1 < w2.heap.size ∧ Below w5.heap.size w5 w2)) := by
              refine Lib.hid ?_
              rintro w' hS
              refine (HSX.out w').mono ?_
              rintro e w2 ⟨rfl, rfl⟩
              exact ⟨rfl, hS⟩
            have CH : Hid (∀ w', (w'.cell? ⟨g2, 0, none⟩ = some (.int .i64 0) ∧ w'.cell? ⟨g2, 1, none⟩ = some (.string xn) ∧ w'.cell? ⟨g2, 2, none⟩ = some (.string xv) ∧ w'.cell? ⟨g1, 8, none⟩ = some (.slice (some ⟨g, 0, none⟩) n cap) ∧ g2 < w'.heap.size ∧ g1 < w'.heap.size ∧ Below w5.heap.size w5 w') → Calls Tryz.prog 44 #[.string xv, .int .u8 0] w' fun e w2 => e = .returned (.bool false) ∧ (w2.cell? ⟨g2, 0, none⟩ = some (.int .i64 0) ∧ w2.cell? ⟨g2, 1, none⟩ = some (.string xn) ∧ w2.cell? ⟨g2, 2, none⟩ = some (.string xv) ∧ w2.cell? ⟨g1, 8, none⟩ = some (.slice (some ⟨g, 0, none⟩) n cap) ∧ g2 < w2.heap.size ∧ g1 < w2.heap.size ∧ Below w5.heap.size w5 w2)) := by
              refine Lib.hid ?_
              rintro w' hS
              refine (HHV.out w').mono ?_
              rintro e w2 ⟨rfl, rfl⟩
              exact ⟨rfl, hS⟩
            have CK : Hid (∀ w', (w'.cell? ⟨g2, 0, none⟩ = some (.int .i64 0) ∧ w'.cell? ⟨g2, 1, none⟩ = some (.string xn) ∧ w'.cell? ⟨g2, 2, none⟩ = some (.string xv) ∧ w'.cell? ⟨g1, 8, none⟩ = some (.slice (some ⟨g, 0, none⟩) n cap) ∧ g2 < w'.heap.size ∧ g1 < w'.heap.size ∧ Below w5.heap.size w5 w') → Calls Tryz.prog 46 #[.slice (some ⟨g, 0, none⟩) k cap, .string xn] w' fun e w2 => e = .returned (.bool false) ∧ (w2.cell? ⟨g2, 0, none⟩ = some (.int .i64 0) ∧ w2.cell? ⟨g2, 1, none⟩ = some (.string xn) ∧ w2.cell? ⟨g2, 2, none⟩ = some (.string xv) ∧ w2.cell? ⟨g1, 8, none⟩ = some (.slice (some ⟨g, 0, none⟩) n cap) ∧ g2 < w2.heap.size ∧ g1 < w2.heap.size ∧ Below w5.heap.size w5 w2)) := by
              refine Lib.hid ?_
              rintro w' ⟨z0, z1, z2, z8, zl, zg, zb⟩
              have hr := attrRow_take (HROW5.out.below zb) (Nat.le_of_lt hla) cap
              have e1 : (acc.take k).length = k := by rw [List.length_take]; omega
              refine (qKnown _ _ xn (by rw [e1]; omega) w' hr).mono ?_
              rintro e w2 ⟨rfl, hb⟩
              rw [HKL.out]
              exact ⟨rfl, (hb.cell (p := ⟨g2, 0, none⟩) zl).trans z0, (hb.cell (p := ⟨g2, 1, none⟩) zl).trans z1, (hb.cell (p := ⟨g2, 2, none⟩) zl).trans z2, (hb.cell (p := ⟨g1, 8, none⟩) zg).trans z8, Nat.lt_of_lt_of_le zl hb.size, Nat.lt_of_lt_of_le zg hb.size, below_next zb hb⟩
            have hk0 : (0 : Int) ≤ (k : Int) := by omega
            have hkc : (k : Int) ≤ (cap : Int) := by have := HCAP.out; omega
            clear HSX HHV HKL x0 x1 x2 x3 x4 x5 x6 x7 x9 x10 x11
            go_region_held3 (fun w' => w'.cell? ⟨g2, 0, none⟩ = some (.int .i64 0) ∧ w'.cell? ⟨g2, 1, none⟩ = some (.string xn) ∧ w'.cell? ⟨g2, 2, none⟩ = some (.string xv) ∧ w'.cell? ⟨g1, 8, none⟩ = some (.slice (some ⟨g, 0, none⟩) n cap) ∧ g2 < w'.heap.size ∧ g1 < w'.heap.size ∧ Below w5.heap.size w5 w')
              (first | exact ⟨y0, y1, y2, x8, hgw, hgg, Below.refl _ _⟩ | exact ⟨y0, y1, y2, x8, hgw, hgg, Below.drew (Below.refl _ _)⟩ | exact ⟨by assumption, by assumption, by assumption, by assumption, by assumption, by assumption, by assumption⟩ | go_keep)
              (first | (go_at_call 47; refine (CS.out _ (by first | assumption | exact ⟨by assumption, by assumption, by assumption, by assumption, by assumption, by assumption, by first | assumption | exact Below.drew (by assumption)⟩)).mono ?_; rintro e w7 ⟨rfl, k0, k1, k2, k8, kl, kg, kb⟩)
                     | (go_at_call 44; refine (CH.out _ (by first | assumption | exact ⟨by assumption, by assumption, by assumption, by assumption, by assumption, by assumption, by first | assumption | exact Below.drew (by assumption)⟩)).mono ?_; rintro e w7 ⟨rfl, k0, k1, k2, k8, kl, kg, kb⟩)
                     | (go_at_call 46; refine (CK.out _ (by first | assumption | exact ⟨by assumption, by assumption, by assumption, by assumption, by assumption, by assumption, by first | assumption | exact Below.drew (by assumption)⟩)).mono ?_; rintro e w7 ⟨rfl, k0, k1, k2, k8, kl, kg, kb⟩))
            all_goals
              go_wp2_with fail
              go_roundw
              case rel => exact ⟨k + 1, by omega, by go_num, below_next HB5.out (by assumption)⟩
              case measure => simp [intOf]; omega
          · have hI2 : ¬ (k : Int) < (n : Int) := by omega
            have hb4 := below_next HB3.out hB
            have HB4 := Lib.hid hb4
            have HKn := Lib.hid (known02 m _ (HC.out.below hb4) (carry HM.out hb4))
            clear hB hb4
            go_wp2_with fail
            refine HKn.out.mono ?_
            rintro e w5 ⟨rfl, hs⟩
            go_wp2_with fail
            go_ret
            exact ⟨rfl, below_next HB4.out hs⟩
  · rw [decide_eq_false h1] at HS1
    clear h1
    go_enter Tryz.func9, Tryz.ntmps9
    go_wp2_with fail
    refine (HS1.out w).mono ?_
    rintro e w1 ⟨rfl, rfl⟩
    go_wp2_with fail
    refine HK.out.mono ?_
    rintro e w4 ⟨rfl, hb⟩
    go_wp2_with fail
    go_ret
    exact ⟨rfl, hb⟩
end Go.Proofs.YtbacdfceiofahaaGreatDoor

namespace Go.Proofs.YtbacdfceiofahaaGreatDoor
open Go.ChangeShapes Go.WideShapes Go.ChangeAt Go.RowKit
set_option maxRecDepth 100000

def laidC : List (String × DataW Unit) := [("unicode/utf8.acceptRanges", Rows.laid_unicode_utf8_acceptRanges), ("thicket/text.controls", Rows.laid_thicket_text_controls), ("unicode/utf8.first", Rows.laid_unicode_utf8_first)]
theorem doorC_os (os : Os) : (World.laidAll Tryz.prog os laidC).os = os := World.laidAll_os _ _ _
theorem doorC_met (os : Os) (args : Array Value) : laidMetH Tryz.prog laidC ((World.laidAll Tryz.prog os laidC).forCall (fun _ _ => 0) ⟨#[], args, []⟩).memory := by
  rw [MakeChecks.laidMetH_plain _ _ _ (by kernel_rfl)]
  exact laidMet_laidAll _ (by kernel_rfl) (by kernel_rfl)

theorem gCtl : Tryz.prog.globalNamed "thicket/text.controls" = some 0 := by kernel_rfl
theorem tCtl : (Tryz.prog.globals[0]?).map (·.type) = some 176 := by kernel_rfl
theorem cCtl : Tryz.prog.cellsOf 21 = 1 := by kernel_rfl
theorem ctlD : (Rows.laid_thicket_text_controls : DataW Unit) = .agg (ctlT.map fun z => .lit (.int .i32 z)) := rfl

theorem ctl_of_laid {W : World} (h : laidMetH Tryz.prog laidC W) : CtlW W := by
  rw [MakeChecks.laidMetH_plain _ _ _ (by kernel_rfl)] at h
  obtain ⟨ps, ⟨g0, t0, cs0, f0, p0, q0, hg0, ht0, hv0, hd0, ⟨g1, t1, cs1, f1, p1, q1, hg1, ht1, hv1, hd1, _, _⟩, _⟩, _⟩ := h
  obtain rfl := Option.some.inj (gCtl.symm.trans hg1)
  obtain rfl := Option.some.inj (tCtl.symm.trans ht1)
  obtain ⟨xs, m1, rfl, hx1, hlen, hn, hel⟩ := DataW.trod_array Tryz.underlying176 hd1
  intro k hk
  have h1 := hel k hk
  rw [cCtl, Nat.mul_one] at h1
  have hxk : xs[k]? = some (xs[k]'(by omega)) := List.getElem?_eq_getElem (by omega)
  rw [hxk] at h1
  obtain ⟨z, e1, e2, _⟩ := DataW.trod_int Tryz.underlying21 h1
  have hz : z = ctlT.getD k 0 := by
    have hx2 := congrArg Prod.fst hx1
    rw [ctlD] at hx2
    simp only [DataW.agg.injEq] at hx2
    have h3 : (ctlT.map fun z => (DataW.lit (.int .i32 z) : DataW Unit))[k]? = (xs.map (·.1))[k]? := by rw [hx2]
    rw [List.getElem?_map, List.getElem?_map, hxk, e2] at h3
    have hk2 : k < ctlT.length := hk
    rw [List.getElem?_eq_getElem hk2] at h3
    simp at h3
    rw [List.getD_eq_getElem?_getD, List.getElem?_eq_getElem hk2]
    simpa using h3.symm
  rw [World.var?_cell hg1 hv1 k, ← hz]
  have h4 : (cs1.toList.drop k)[0]? = some (.int .i32 z) := by
    have := congrArg (fun l => l[0]?) e1
    simp only [List.getElem?_take] at this
    simpa using this
  rw [List.getElem?_drop, Nat.add_zero, Array.getElem?_toList] at h4
  exact h4

/-- A row whose start is said to hold more, with the shapes and the listed variables at hand. -/
theorem handedC {H : Type} {enc : TypeId × Value → H} {a : Assume} {os : Os} {f : FuncId} {fn : Func} {s : ChangeSpec} {conds : List PathCond} {apart fresh handsOn again : Bool}
    (own : ownKnob Tryz.prog.godebug = none) (started : os.Started) (noInit : Tryz.prog.inits.idxOf? f = none) (hfn : Tryz.prog.funcs[f]? = some fn)
    (witness : ∃ (w : World) (tape : Tape) (i : Input), w.os = os ∧ (w.forCall tape i).Shaped Tryz.prog ∧ i.vars = [] ∧ Input.okWide Tryz.prog (w.forCall tape i) .any w.heap.size f i ∧
      ((s.pre enc Tryz.prog fn conds apart (w.forCall tape i).memory i.args ∧ laidMetH Tryz.prog laidC (w.forCall tape i).memory) ∧ sizedMet enc Tryz.prog fn (OpenSpec.ofChange s) apart (w.forCall tape i).memory i.args) ∧ a.holds Tryz.prog (lone (Frame.enter Tryz.prog f i.args .normal) [] (w.forCall tape i)))
    (walk : ∀ (W : World) (base : Nat) (args : Array Value) (ds gs : List (DataW H)) (before : List MemPlace),
      (∀ (j : Nat) t v, fn.params[j]? = some t → args[j]? = some v → Value.okWide Tryz.prog W .any base t v) →
      DataW.Whole enc Tryz.prog fn.params.toList s.vars apart W args.toList ds gs before → W.ShapedOpen Tryz.prog → CtlW W →
      Calls Tryz.prog f args W fun e W' => ∃ v, e = .returned v ∧ s.post enc Tryz.prog fn apart fresh handsOn again W args v W') :
    ReturnsInHanded a Tryz.checked os f .any (fun w args => (s.pre enc Tryz.prog fn conds apart w args ∧ laidMetH Tryz.prog laidC w) ∧ sizedMet enc Tryz.prog fn (OpenSpec.ofChange s) apart w args) (s.post enc Tryz.prog fn apart fresh handsOn again) := by
  refine returnsInHanded_of_calls (C := Tryz.checked) own started (by exact noInit) witness ?_
  intro w tape i _ hsh _ hok hpre _
  obtain ⟨_, _, _, fn', hfn', _, _, _, _, hval⟩ := hok
  obtain rfl : fn' = fn := Option.some.inj (hfn'.symm.trans hfn)
  obtain ⟨⟨⟨ds, gs, before, hw, _⟩, hX⟩, _⟩ := hpre
  refine (walk (w.forCall tape i) w.heap.size i.args ds gs before hval (DataW.Whole.of_heap (w' := w.forCall tape i) (by rfl) hw) hsh (ctl_of_laid (laidMetH.of_heap (w' := w.forCall tape i) (by rfl) hX))).mono fun e W' ⟨v, he, hp⟩ => ?_
  subst he
  exact ChangeSpec.post_blind hp
end Go.Proofs.YtbacdfceiofahaaGreatDoor
