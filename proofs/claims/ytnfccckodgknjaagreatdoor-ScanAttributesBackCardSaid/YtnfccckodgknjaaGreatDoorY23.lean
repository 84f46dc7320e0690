/-
  The document's own lower case.
  A byte that belongs to no encoding parts the pieces.
  Count: the number of the pieces.
  What is decoded reads as it is: pieces of decoded bytes.
  Valid.
  The document's own line ends.
  TextNewlines: the walk.
  TextPieces: the walk.
  TextInput: the walk.
  The document's own reading of what is an encoding.
  When the first piece is whole.
  The document's own reading of validity.
  The document's own decoder.
  The document's own encoder, and what it says of the decoder.
  What the entries of the table are like: one look by the kernel.
  The longest name as a function of the table; what the table's entries are like. No walk in sight.
  TextLowers: the walk.
  The examples of references: two kernel looks at the table.
-/
import Derived.Test.YtnfccckodgknjaaGreatDoorY22
import Derived.OwnWalk
import Derived.RangeFuncBox
import Derived.Test.YtnfccckodgknjaaGreatDoorY20
import Derived.Test.YtnfccckodgknjaaGreatDoorY21
namespace Go.Proofs.YtnfccckodgknjaaGreatDoor
open Go.RowKit
set_option maxHeartbeats 1000000
set_option maxRecDepth 100000

theorem info_u8 : (Tryz.prog.info? 5).map (fun i => (i.zero, i.size, i.bytes)) = some (some (.int .u8 0), 1, 1) := by kernel_rfl
def u8c (l : List UInt8) : List Value := l.map fun b => Value.int .u8 b.toNat

theorem own_grown {w wr w1 : World} {o : Obj} {v : Value} {n e size : Nat} {xs : List Value} {row : Option Nat} (hB : Below w.heap.size w wr) (hown : wr.ownsRow w.heap.size e size v n xs) (hrow : v.ownBlock = row) (hg : (wr.alloc o).grownBy w1 row) : Below w.heap.size w w1 :=
  Below.grown (hB.alloc hB.size _) hg (by have := hB.size; simp; omega) (fun j hj => (hown.lt j (hrow.trans hj)).1)

/-- The string of the bytes that a slice owns. -/
theorem bytes_back {wr : World} {B : Nat} {v : Value} {l : List UInt8} (hown : wr.ownsRow B 5 1 v l.length (u8c l)) : (convert 75 9 v).run Tryz.prog wr = .ok (.string ⟨l.toArray⟩) wr := by
  rcases hown.2 with ⟨rfl, h0⟩ | ⟨g, cap, cur, rfl, _⟩
  · have : l = [] := List.length_eq_zero_iff.1 h0
    subst this
    exact run_convert_bytes_nil _ _ _ Tryz.underlying75 Tryz.underlying5 0 0 _ Tryz.underlying9
  · refine run_convert_bytes_back wr _ _ 5 ⟨g, 0, none⟩ cap l Tryz.underlying75 Tryz.underlying5 Tryz.underlying9 ?_
    intro j hj
    refine hown.cells rfl j _ ?_
    simp [u8c, hj]

theorem rLower (s : ByteArray) (hs : s.size ≤ 200000) (w : World) :
    Calls Tryz.prog 14 #[.string s] w fun e w' => e = .returned (.string (lowS s)) ∧ Below w.heap.size w w' := by
  obtain ⟨i0, hi, hz0, hz1, hz2⟩ := info_parts info_u8
  go_enter Tryz.func14, Tryz.ntmps14
  go_wp2_with fail
  go_loopw [3, 4] (fun v i wr => ∃ k : Nat, k ≤ s.size ∧ i = .int .i64 k ∧ wr.ownsRow w.heap.size 5 1 v k (u8c ((s.data.toList.map lowU).take k)) ∧ Below w.heap.size w wr) (fun _ i _ => s.size - (intOf i).toNat)
  case atStart => exact ⟨0, Nat.zero_le _, rfl, World.ownsRow_nil _ _ _ _, Below.refl _ _⟩
  case round =>
    obtain ⟨k, hk, rfl, hown, hB⟩ := hrel
    by_cases hlt : k < s.size
    · have hb0 : (0 : Int) ≤ ((s[k]'hlt).toNat : Int) := by omega
      have hb1 : ((s[k]'hlt).toNat : Int) ≤ 255 := by have := (s[k]'hlt).toNat_lt; omega
      have hI : (k : Int) < (s.size : Int) := by omega
      have hsz := hB.size
      have hnext : u8c ((s.data.toList.map lowU).take (k + 1)) = u8c ((s.data.toList.map lowU).take k) ++ [.int .u8 (lowZ ((s[k]'hlt).toNat : Int))] := by
        have e : (s.data.toList.map lowU)[k]? = some (lowU (s[k]'hlt)) := by
          rw [List.getElem?_map, Array.getElem?_toList]
          have : s.data[k]? = some (s[k]'hlt) := Array.getElem?_eq_getElem (xs := s.data) hlt
          rw [this]; rfl
        rw [List.take_add_one, e]
        simp [u8c, lowU_toNat]
      have HNX := Lib.hid hnext
      clear hnext
      cases hu : upB ((s[k]'hlt).toNat : Int) with
      | true =>
        have hl : lowZ ((s[k]'hlt).toNat : Int) = ((s[k]'hlt).toNat : Int) + 32 := by unfold lowZ; rw [if_pos hu]
        have hb2 : ((s[k]'hlt).toNat : Int) ≤ 90 := by unfold upB at hu; simp at hu; omega
        have HL := Lib.hid hl
        have HU := Lib.hid hu
        clear hl hu
        go_wp2_with (first
          | (go_at_call 57; refine (rUpper _ _).mono ?_; rw [HU.out]; rintro e w' ⟨rfl, rfl⟩)
          | (at_builtin; refine wpList_append_own _ rfl _ _ 75 rfl w.heap.size 5 i0 (.int .u8 0) 1 1 Tryz.underlying75 hi hz0 hz1 hz2 rfl (by decide) _ _ _ rfl (hown.alloc _) ⟨_, 0, none⟩ 1 1 [.int .u8 (((s[k]'hlt).toNat : Int) + 32)] rfl rfl ?c1 ?c2 ?c3 ?c4 ?c5 ?_))
        case c1 =>
          intro j u hj
          match j, hj with
          | 0, hj => simp at hj; subst hj; simp [Addr.add]
        case c2 => intro u hu; simp at hu; subst hu; rfl
        case c3 => unfold maxLen; omega
        case c4 => omega
        case c5 => simp; omega
        · intro v' w1 hown' hgrow _
          have hB' := own_grown hB hown rfl hgrow
          have HO := Lib.hid (show w1.ownsRow w.heap.size 5 1 v' (k + 1) _ from by have := hown'; rw [← HL.out, ← HNX.out] at this; exact this)
          clear hown' hgrow hown hB
          go_wp2
          go_roundw
          case rel => exact ⟨k + 1, by omega, by go_num, HO.out, hB'⟩
          case measure => simp [intOf]; omega
      | false =>
        have hl : lowZ ((s[k]'hlt).toNat : Int) = ((s[k]'hlt).toNat : Int) := by unfold lowZ; rw [if_neg (by simp [hu])]
        have HL := Lib.hid hl
        have HU := Lib.hid hu
        clear hl hu
        go_wp2_with (first
          | (go_at_call 57; refine (rUpper _ _).mono ?_; rw [HU.out]; rintro e w' ⟨rfl, rfl⟩)
          | (at_builtin; refine wpList_append_own _ rfl _ _ 75 rfl w.heap.size 5 i0 (.int .u8 0) 1 1 Tryz.underlying75 hi hz0 hz1 hz2 rfl (by decide) _ _ _ rfl (hown.alloc _) ⟨_, 0, none⟩ 1 1 [.int .u8 ((s[k]'hlt).toNat : Int)] rfl rfl ?d1 ?d2 ?d3 ?d4 ?d5 ?_))
        case d1 =>
          intro j u hj
          match j, hj with
          | 0, hj => simp at hj; subst hj; simp [Addr.add]
        case d2 => intro u hu; simp at hu; subst hu; rfl
        case d3 => unfold maxLen; omega
        case d4 => omega
        case d5 => simp; omega
        · intro v' w1 hown' hgrow _
          have hB' := own_grown hB hown rfl hgrow
          have HO := Lib.hid (show w1.ownsRow w.heap.size 5 1 v' (k + 1) _ from by have := hown'; rw [← HL.out, ← HNX.out] at this; exact this)
          clear hown' hgrow hown hB
          go_wp2
          go_roundw
          case rel => exact ⟨k + 1, by omega, by go_num, HO.out, hB'⟩
          case measure => simp [intOf]; omega
    · have hl : k = (s.data.toList.map lowU).length := by rw [List.length_map, size_list]; omega
      have hown2 := hown
      rw [hl, List.take_length] at hown2
      have hbk := bytes_back hown2
      have hls : (⟨(s.data.toList.map lowU).toArray⟩ : ByteArray) = lowS s := rfl
      rw [hls] at hbk
      clear hown2 hl hls
      clear hown
      go_wp2
      go_ret
      exact ⟨rfl, hB⟩
end Go.Proofs.YtnfccckodgknjaaGreatDoor

namespace Go.Proofs.YtnfccckodgknjaaGreatDoor
open Go.RowKit
set_option maxHeartbeats 1000000

/-- No row of the table holds the byte, at whatever place. -/
def outR (R : List (Int × Int)) (c : UInt8) : Bool := R.all fun p => !inB p.1 p.2 c.toNat
def outT (T : List (Int × Int × List (Int × Int))) (c : UInt8) : Bool := T.all fun p => !inB p.1 p.2.1 c.toNat && outR p.2.2 c

theorem rest_out (c : UInt8) : ∀ (R : List (Int × Int)) (t b : List UInt8) (n : Nat), outR R c = true → measRest R (t ++ c :: b) n = measRest R t n
  | [], t, b, n, _ => by cases t <;> rfl
  | (lo, hi) :: rs, [], b, n, h => by
    unfold outR at h
    rw [List.all_cons, Bool.and_eq_true, Bool.not_eq_true'] at h
    show (if inB lo hi c.toNat then _ else _) = _
    rw [h.1]
    rfl
  | (lo, hi) :: rs, x :: t, b, n, h => by
    have h2 : outR rs c = true := by
      unfold outR at h ⊢
      rw [List.all_cons, Bool.and_eq_true] at h
      exact h.2
    rw [List.cons_append]
    unfold measRest
    split
    · exact rest_out c rs t b (n + 1) h2
    · rfl
theorem tab_out (c : UInt8) (x : UInt8) (t b : List UInt8) : ∀ T : List (Int × Int × List (Int × Int)), outT T c = true → measTab T x (t ++ c :: b) = measTab T x t
  | [], _ => rfl
  | (lo, hi, rs) :: es, h => by
    unfold outT at h
    rw [List.all_cons, Bool.and_eq_true, Bool.and_eq_true] at h
    unfold measTab
    split
    · exact rest_out c rs t b 1 h.1.2
    · exact tab_out c x t b es h.2
theorem tab_first (c : UInt8) (b : List UInt8) : ∀ T : List (Int × Int × List (Int × Int)), outT T c = true → measTab T c b = (1, false)
  | [], _ => rfl
  | (lo, hi, rs) :: es, h => by
    unfold outT at h
    rw [List.all_cons, Bool.and_eq_true, Bool.and_eq_true, Bool.not_eq_true'] at h
    unfold measTab
    rw [if_neg (by simp [h.1.1])]
    exact tab_first c b es h.2

theorem pieces_out (c : UInt8) (hc : outT encT c = true) (b : List UInt8) : ∀ (n : Nat) (a : List UInt8), a.length ≤ n → piecesL (a ++ c :: b) = piecesL a ++ ([c], false) :: piecesL b
  | _, [], _ => by
    rw [List.nil_append, piecesL_cons, tab_first c b encT hc]
    rfl
  | 0, x :: t, h => by simp at h
  | n + 1, x :: t, h => by
    have hp := measTab_pos encT x t
    rw [List.cons_append, piecesL_cons, tab_out c x t b encT hc, piecesL_cons]
    generalize measTab encT x t = m at hp
    have e1 : (x :: (t ++ c :: b)).take m.1 = (x :: t).take m.1 := by
      rw [← List.cons_append, List.take_append_of_le_length (by simp; omega)]
    have e2 : (x :: (t ++ c :: b)).drop m.1 = (x :: t).drop m.1 ++ c :: b := by
      rw [← List.cons_append, List.drop_append_of_le_length (by simp; omega)]
    rw [e1, e2, pieces_out c hc b n _ (by simp at h ⊢; omega)]
    rfl

theorem decS_out (a b : ByteArray) (c : UInt8) (hc : outT encT c = true) : decS (a ++ ⟨#[c]⟩ ++ b) = decS a ++ ⟨#[239, 191, 189]⟩ ++ decS b := by
  apply list_bytes
  have e : (a ++ ⟨#[c]⟩ ++ b).data.toList = a.data.toList ++ c :: b.data.toList := by
    simp [ByteArray.data_append, Array.toList_append]
  have e2 : (decS a ++ ⟨#[239, 191, 189]⟩ ++ decS b).data.toList = (decS a).data.toList ++ [239, 191, 189] ++ (decS b).data.toList := by
    simp [ByteArray.data_append, Array.toList_append]
  rw [e2, decS_list, decS_list, decS_list]
  unfold piecesB
  rw [e, pieces_out c hc b.data.toList _ _ (Nat.le_refl _)]
  unfold decP
  rw [List.map_append, List.flatMap_append, List.map_cons, List.flatMap_cons]
  have : pcL (packP ([c], false)) = [239, 191, 189] := rfl
  rw [this, List.append_assoc]
theorem out_c (c : UInt8) (h : c = 192 ∨ c = 193 ∨ 245 ≤ c.toNat) : outT encT c = true := by
  have hn : c.toNat = 192 ∨ c.toNat = 193 ∨ 245 ≤ c.toNat := by
    rcases h with rfl | rfl | h
    · exact .inl rfl
    · exact .inr (.inl rfl)
    · exact .inr (.inr h)
  have hl := c.toNat_lt
  simp [outT, outR, encT, inB]
  omega
end Go.Proofs.YtnfccckodgknjaaGreatDoor

namespace Go.Proofs.YtnfccckodgknjaaGreatDoor
open Go.RowKit Go.Shelf Go.Lib
attribute [local go_sem] Oper.semAt_some
set_option maxHeartbeats 1000000
set_option maxRecDepth 100000

end Go.Proofs.YtnfccckodgknjaaGreatDoor

namespace Go.Proofs.YtnfccckodgknjaaGreatDoor
open Go.RowKit
set_option maxHeartbeats 1000000

theorem rest_true : ∀ (R : List (Int × Int)) (l : List UInt8) (n n' : Nat), measRest R l n = (n', true) → n' = n + R.length ∧ R.length ≤ l.length ∧ ∀ r, measRest R (l.take R.length ++ r) n = (n', true)
  | [], l, n, n', h => by
    have e : n = n' := by
      have : measRest [] l n = (n, true) := by cases l <;> rfl
      rw [this] at h
      exact congrArg Prod.fst h
    subst e
    exact ⟨rfl, Nat.zero_le _, fun r => by cases r <;> rfl⟩
  | (lo, hi) :: rs, [], n, n', h => by
    simp [measRest] at h
  | (lo, hi) :: rs, x :: t, n, n', h => by
    unfold measRest at h
    split at h
    · rename_i hx
      obtain ⟨h1, h2, h3⟩ := rest_true rs t (n + 1) n' h
      refine ⟨by rw [h1, List.length_cons]; omega, by simp; omega, fun r => ?_⟩
      rw [List.length_cons, List.take_succ_cons, List.cons_append]
      unfold measRest
      rw [if_pos hx]
      exact h3 r
    · simp at h
theorem tab_true (b : UInt8) (t : List UInt8) : ∀ (T : List (Int × Int × List (Int × Int))) (n' : Nat), measTab T b t = (n', true) → 1 ≤ n' ∧ n' - 1 ≤ t.length ∧ ∀ r, measTab T b (t.take (n' - 1) ++ r) = (n', true)
  | [], n', h => by simp [measTab] at h
  | (lo, hi, rs) :: es, n', h => by
    unfold measTab at h
    split at h
    · rename_i hx
      obtain ⟨h1, h2, h3⟩ := rest_true rs t 1 n' h
      have e : n' - 1 = rs.length := by omega
      refine ⟨by omega, by omega, fun r => ?_⟩
      unfold measTab
      rw [if_pos hx, e]
      exact h3 r
    · rename_i hx
      obtain ⟨h1, h2, h3⟩ := tab_true b t es n' h
      refine ⟨h1, h2, fun r => ?_⟩
      unfold measTab
      rw [if_neg hx]
      exact h3 r

/-- What a piece is decoded to. -/
def okP (q : List UInt8 × Bool) : List UInt8 := if q.2 then q.1 else [239, 191, 189]
/-- What a piece of any bytes is. -/
structure IsP (q : List UInt8 × Bool) : Prop where
  pos : 1 ≤ q.1.length
  four : q.1.length ≤ 4
  ok : ∀ r, piecesL (okP q ++ r) = (okP q, true) :: piecesL r

theorem fffd (r : List UInt8) : piecesL ([239, 191, 189] ++ r) = ([239, 191, 189], true) :: piecesL r := by
  have e : measTab encT 239 ([191, 189] ++ r) = (3, true) := by cases r <;> rfl
  show piecesL (239 :: ([191, 189] ++ r)) = _
  rw [piecesL_cons, e]
  rfl
theorem isP_first (b : UInt8) (t : List UInt8) : IsP ((b :: t).take (measTab encT b t).1, (measTab encT b t).2) := by
  have hp := measTab_pos encT b t
  have h4 := measEnc_le b t
  refine ⟨by simp; omega, by simp; omega, ?_⟩
  intro r
  cases hc : (measTab encT b t).2 with
  | false => exact fffd r
  | true =>
    show piecesL ((b :: t).take (measTab encT b t).1 ++ r) = ((b :: t).take (measTab encT b t).1, true) :: piecesL r
    obtain ⟨h1, h2, h3⟩ := tab_true b t encT (measTab encT b t).1 (by rw [← hc])
    generalize (measTab encT b t).1 = n at h1 h2 h3
    obtain ⟨k, rfl⟩ : ∃ k, n = k + 1 := ⟨n - 1, by omega⟩
    rw [Nat.add_sub_cancel] at h2 h3
    rw [List.take_succ_cons, List.cons_append, piecesL_cons, h3 r]
    have e1 : (b :: (t.take k ++ r)).take (k + 1) = b :: t.take k := by
      rw [List.take_succ_cons, List.take_append_of_le_length (by rw [List.length_take]; omega), List.take_take, Nat.min_self]
    have e2 : (b :: (t.take k ++ r)).drop (k + 1) = r := by
      rw [List.drop_succ_cons, List.drop_append, List.length_take, Nat.min_eq_left h2, Nat.sub_self, List.drop_zero, List.drop_eq_nil_of_le (by rw [List.length_take]; omega)]
      rfl
    rw [e1, e2]
theorem isP_all : ∀ (n : Nat) (l : List UInt8), l.length ≤ n → ∀ q ∈ piecesL l, IsP q
  | _, [], _ => by intro q hq; simp [piecesL, piecesF] at hq
  | 0, b :: t, h => by simp at h
  | n + 1, b :: t, h => by
    intro q hq
    have hp := measTab_pos encT b t
    rw [piecesL_cons, List.mem_cons] at hq
    rcases hq with rfl | hq
    · exact isP_first b t
    · exact isP_all n _ (by simp at h ⊢; omega) q hq

theorem pieces_dec (r : List UInt8) : ∀ ps : List (List UInt8 × Bool), (∀ q ∈ ps, IsP q) → piecesL (ps.flatMap okP ++ r) = ps.map (fun q => (okP q, true)) ++ piecesL r
  | [], _ => by simp
  | q :: ps, h => by
    rw [List.flatMap_cons, List.append_assoc, (h q (by simp)).ok, pieces_dec r ps fun x hx => h x (by simp [hx])]
    rfl

/-- What bytes are decoded to. -/
def decL (l : List UInt8) : List UInt8 := (piecesL l).flatMap okP
theorem decS_decL (s : ByteArray) : (decS s).data.toList = decL s.data.toList := by
  rw [decS_list]
  unfold piecesB decP decL
  have hall := isP_all _ s.data.toList (Nat.le_refl _)
  generalize piecesL s.data.toList = ps at hall
  induction ps with
  | nil => rfl
  | cons q ps ih =>
    rw [List.map_cons, List.flatMap_cons, List.flatMap_cons, ih fun x hx => hall x (by simp [hx])]
    congr 1
    show (if q.2 then (⟨(q.1.take 4).toArray⟩ : ByteArray).data.toList else [239, 191, 189]) = okP q
    rw [List.take_of_length_le (hall q (by simp)).four]
    rfl
theorem dec_app (a r : List UInt8) : piecesL (decL a ++ r) = (piecesL a).map (fun q => (okP q, true)) ++ piecesL r := pieces_dec r _ (isP_all _ a (Nat.le_refl _))
theorem decL_app (a r : List UInt8) : decL (decL a ++ r) = decL a ++ decL r := by
  unfold decL
  rw [show (piecesL a).flatMap okP = decL a from rfl, dec_app, List.flatMap_append, List.flatMap_map]
  rfl
theorem pieces_nil : piecesL [] = [] := rfl
theorem decL_decL (a : List UInt8) : decL (decL a) = decL a := by
  have h := decL_app a []
  rw [List.append_nil] at h
  rw [h]
  show decL a ++ [] = _
  rw [List.append_nil]
theorem cnt_app (a r : List UInt8) : (piecesL (decL a ++ r)).length = (piecesL a).length + (piecesL r).length := by
  rw [dec_app, List.length_append, List.length_map]
theorem cnt_dec (a : List UInt8) : (piecesL (decL a)).length = (piecesL a).length := by
  have h := cnt_app a []
  rw [List.append_nil] at h
  rw [h]
  rfl
theorem piecesB_length (s : ByteArray) : (piecesB s).length = (piecesL s.data.toList).length := by simp [piecesB]
theorem decL_len : ∀ (n : Nat) (l : List UInt8), l.length ≤ n → (decL l).length ≤ 3 * l.length
  | _, [], _ => by simp [decL, piecesL, piecesF]
  | 0, b :: t, h => by simp at h
  | n + 1, b :: t, h => by
    have hp := measTab_pos encT b t
    have hq := isP_first b t
    have ih := decL_len n ((b :: t).drop (measTab encT b t).1) (by simp at h ⊢; omega)
    unfold decL at ih ⊢
    rw [piecesL_cons, List.flatMap_cons, List.length_append]
    rw [List.length_drop] at ih
    have hk : (okP ((b :: t).take (measTab encT b t).1, (measTab encT b t).2)).length ≤ 3 * (measTab encT b t).1 := by
      unfold okP
      split
      · simp; omega
      · simp; omega
    simp at ih hk ⊢
    omega
theorem decS_size3 (s : ByteArray) : (decS s).size ≤ 3 * s.size := by
  have h := decL_len _ s.data.toList (Nat.le_refl _)
  rw [← decS_decL, size_list, size_list] at h
  exact h
end Go.Proofs.YtnfccckodgknjaaGreatDoor

namespace Go.Proofs.YtnfccckodgknjaaGreatDoor
open Go.RowKit Go.Shelf Go.Lib
attribute [local go_sem] Oper.semAt_some
set_option maxHeartbeats 1000000
set_option maxRecDepth 100000

end Go.Proofs.YtnfccckodgknjaaGreatDoor

namespace Go.Proofs.YtnfccckodgknjaaGreatDoor
open Go.RowKit
set_option maxHeartbeats 1000000
set_option maxRecDepth 100000

def nlR : List UInt8 → List UInt8
  | [] => []
  | [b] => if b = 13 then [10] else [b]
  | b :: x :: t => if b = 13 then (if x = 10 then nlR (x :: t) else 10 :: nlR (x :: t)) else b :: nlR (x :: t)
theorem nlR_b (b : UInt8) (t : List UInt8) (h : ¬ b = 13) : nlR (b :: t) = b :: nlR t := by
  cases t with
  | nil => simp [nlR, h]
  | cons x t => rw [nlR, if_neg h]
theorem nlR_skip (t : List UInt8) : nlR (13 :: 10 :: t) = nlR (10 :: t) := by rw [nlR, if_pos rfl, if_pos rfl]
theorem nlR_10 (t : List UInt8) (h : ¬ t.head? = some 10) : nlR (13 :: t) = 10 :: nlR t := by
  cases t with
  | nil => rfl
  | cons x t => rw [nlR, if_pos rfl, if_neg (by simpa using h)]
theorem newL_nlR : ∀ (n : Nat) (l : List UInt8), l.length ≤ n → newL l = nlR l
  | _, [], _ => rfl
  | _, [b], _ => by
    unfold newL rep1
    rw [rep2, nlR]
    simp
  | 0, b :: x :: t, h => by simp at h
  | n + 1, b :: x :: t, h => by
    have i1 := newL_nlR n (x :: t) (by simp at h ⊢; omega)
    have i2 := newL_nlR n t (by simp at h ⊢; omega)
    unfold newL at i1 i2 ⊢
    rw [rep2]
    by_cases hb : b = 13
    · subst hb
      by_cases hx : x = 10
      · subst hx
        rw [if_pos ⟨rfl, rfl⟩, nlR_skip, nlR_b 10 t (by decide), ← i2]
        rfl
      · rw [if_neg (by simp [hx]), nlR_10 _ (by simpa using hx), ← i1]
        rfl
    · rw [if_neg (by simp [hb]), nlR_b b _ hb, ← i1]
      show rep1 13 [10] (b :: _) = _
      unfold rep1
      rw [List.flatMap_cons, if_neg hb]
      rfl
theorem nlR_no (n : Nat) : ∀ (l : List UInt8), l.length ≤ n → ∀ x ∈ nlR l, x ≠ 13 := by
  induction n with
  | zero =>
    intro l h
    have : l = [] := List.length_eq_zero_iff.1 (by omega)
    subst this
    simp [nlR]
  | succ n ih =>
    intro l h
    cases l with
    | nil => simp [nlR]
    | cons b t =>
      have i1 := ih t (by simp at h; omega)
      by_cases hb : b = 13
      · subst hb
        by_cases ht : t.head? = some 10
        · cases t with
          | nil => simp at ht
          | cons x t =>
            simp at ht
            subst ht
            rw [nlR_skip]
            exact i1
        · rw [nlR_10 t ht]
          intro x hx
          rw [List.mem_cons] at hx
          rcases hx with rfl | hx
          · decide
          · exact i1 x hx
      · rw [nlR_b b t hb]
        intro x hx
        rw [List.mem_cons] at hx
        rcases hx with rfl | hx
        · exact hb
        · exact i1 x hx
theorem nlR_same : ∀ l : List UInt8, (∀ x ∈ l, x ≠ 13) → nlR l = l
  | [], _ => rfl
  | b :: t, h => by rw [nlR_b b t (h b (by simp)), nlR_same t fun x hx => h x (by simp [hx])]
theorem nlR_len (n : Nat) : ∀ (l : List UInt8), l.length ≤ n → (nlR l).length ≤ l.length := by
  induction n with
  | zero =>
    intro l h
    have : l = [] := List.length_eq_zero_iff.1 (by omega)
    subst this
    simp [nlR]
  | succ n ih =>
    intro l h
    cases l with
    | nil => simp [nlR]
    | cons b t =>
      have i1 := ih t (by simp at h; omega)
      by_cases hb : b = 13
      · subst hb
        by_cases ht : t.head? = some 10
        · cases t with
          | nil => simp at ht
          | cons x t =>
            simp at ht
            subst ht
            rw [nlR_skip, List.length_cons]
            omega
        · rw [nlR_10 t ht, List.length_cons, List.length_cons]
          omega
      · rw [nlR_b b t hb, List.length_cons, List.length_cons]
        omega

theorem one_cell (w : World) (t : TypeId) (v : Value) : ∀ (j : Nat) (u : Value), [v][j]? = some u → (w.alloc (.cells #[v] t)).cell? ((⟨w.heap.size, 0, none⟩ : Addr).add j) = some u := by
  intro j u hj
  match j, hj with
  | 0, hj => simp at hj; subst hj; simp [Addr.add]
theorem one_one (x : Int) : ∀ u ∈ [Value.int .u8 x], u.oneCell' = true := by
  intro u hu
  simp at hu
  subst hu
  rfl

def nlS (s : ByteArray) : ByteArray := ⟨(nlR s.data.toList).toArray⟩

theorem rNewlines (s : ByteArray) (hs : s.size ≤ 200000) (w : World) :
    Calls Tryz.prog 205 #[.string s] w fun e w' => e = .returned (.string (nlS s)) ∧ Below w.heap.size w w' := by
  obtain ⟨i0, hi, hz0, hz1, hz2⟩ := info_parts info_u8
  obtain ⟨R, hR⟩ : ∃ R, R = nlR s.data.toList := ⟨_, rfl⟩
  have hRS : nlS s = ⟨R.toArray⟩ := by unfold nlS; rw [hR]
  rw [hRS]
  have HR := Lib.hid hR
  clear hR hRS
  go_enter Tryz.func205, Tryz.ntmps205
  go_wp2_with fail
  go_loopw [3, 4] (fun v i wr => ∃ (k n : Nat) (pre : List UInt8), k ≤ s.size ∧ n ≤ k ∧ i = .int .i64 k ∧ pre.length = n ∧ pre ++ nlR (s.data.toList.drop k) = R ∧ wr.ownsRow w.heap.size 5 1 v n (u8c pre) ∧ Below w.heap.size w wr) (fun _ i _ => s.size - (intOf i).toNat)
  case atStart => exact ⟨0, 0, [], Nat.zero_le _, Nat.zero_le _, rfl, rfl, HR.out.symm, World.ownsRow_nil _ _ _ _, Below.refl _ _⟩
  case round =>
    obtain ⟨k, n, pre, hk, hn, rfl, hln, hpre, hown, hB⟩ := hrel
    have HLN := Lib.hid hln
    have HP := Lib.hid hpre
    clear hln hpre
    have hsz := hB.size
    by_cases hlt : k < s.size
    · have hb0 : (0 : Int) ≤ ((s[k]'hlt).toNat : Int) := by omega
      have hb1 : ((s[k]'hlt).toNat : Int) ≤ 255 := by have := (s[k]'hlt).toNat_lt; omega
      have hI : (k : Int) < (s.size : Int) := by omega
      have HD := Lib.hid (drop_byte s k hlt)
      by_cases hb : s[k]'hlt = 13
      · have hq : (((s[k]'hlt).toNat : Int) == 13) = true := by rw [hb]; rfl
        have HB := Lib.hid hb
        clear hb
        by_cases hlt2 : k + 1 < s.size
        · have hI2 : (k : Int) + 1 < (s.size : Int) := by omega
          have HD2 := Lib.hid (drop_byte s (k + 1) hlt2)
          by_cases hx : s[k + 1]'hlt2 = 10
          · have hq2 : (((s[k + 1]'hlt2).toNat : Int) == 10) = true := by rw [hx]; rfl
            have HX := Lib.hid hx
            clear hx
            go_wp2_with fail
            go_roundw
            case rel => exact ⟨k + 1, n, pre, by omega, by omega, by go_num, HLN.out, by rw [← HP.out, HD.out, HD2.out, HB.out, HX.out, nlR_skip], hown, hB⟩
            case measure => simp [intOf]; omega
          · have hq2 : (((s[k + 1]'hlt2).toNat : Int) == 10) = false := by
              rw [beq_eq_false_iff_ne]
              intro e
              exact hx (UInt8.toNat_inj.mp (by show _ = 10; omega))
            have HX := Lib.hid hx
            have HS : Hid (pre ++ [10] ++ nlR (s.data.toList.drop (k + 1)) = R) := Lib.hid (by
              rw [← HP.out, HD.out, HB.out, nlR_10 _ (by rw [HD2.out]; simpa using HX.out)]
              simp)
            clear hx
            go_wp2_with (first
          | (at_builtin; refine wpList_append_own _ rfl _ _ 75 rfl w.heap.size 5 i0 (.int .u8 0) 1 1 Tryz.underlying75 hi hz0 hz1 hz2 rfl (by decide) _ _ _ rfl (hown.alloc _) ⟨_, 0, none⟩ 1 1 [.int .u8 10] rfl rfl (one_cell _ _ _) (one_one _) (by unfold maxLen; omega) (by omega) (by simp; omega) ?_; intro v' w1 hown' hgrow _))
            have hB' := own_grown hB hown rfl hgrow
            have HO : Hid (w1.ownsRow w.heap.size 5 1 v' (n + 1) (u8c (pre ++ [10]))) := Lib.hid (by
              have := hown'
              simpa [u8c] using this)
            clear hown' hgrow hown hB
            go_wp2
            go_roundw
            case rel => exact ⟨k + 1, n + 1, pre ++ [10], by omega, by omega, by go_num, by have := HLN.out; simp; omega, HS.out, HO.out, hB'⟩
            case measure => simp [intOf]; omega
        · have hI2 : ¬ (k : Int) + 1 < (s.size : Int) := by omega
          have HS : Hid (pre ++ [10] ++ nlR (s.data.toList.drop (k + 1)) = R) := Lib.hid (by
            rw [← HP.out, HD.out, HB.out, drop_end s (k + 1) (by omega)]
            simp [nlR])
          go_wp2_with (first
          | (at_builtin; refine wpList_append_own _ rfl _ _ 75 rfl w.heap.size 5 i0 (.int .u8 0) 1 1 Tryz.underlying75 hi hz0 hz1 hz2 rfl (by decide) _ _ _ rfl (hown.alloc _) ⟨_, 0, none⟩ 1 1 [.int .u8 10] rfl rfl (one_cell _ _ _) (one_one _) (by unfold maxLen; omega) (by omega) (by simp; omega) ?_; intro v' w1 hown' hgrow _))
          have hB' := own_grown hB hown rfl hgrow
          have HO : Hid (w1.ownsRow w.heap.size 5 1 v' (n + 1) (u8c (pre ++ [10]))) := Lib.hid (by
            have := hown'
            simpa [u8c] using this)
          clear hown' hgrow hown hB
          go_wp2
          go_roundw
          case rel => exact ⟨k + 1, n + 1, pre ++ [10], by omega, by omega, by go_num, by have := HLN.out; simp; omega, HS.out, HO.out, hB'⟩
          case measure => simp [intOf]; omega
      · have hq : (((s[k]'hlt).toNat : Int) == 13) = false := by
          rw [beq_eq_false_iff_ne]
          intro e
          exact hb (UInt8.toNat_inj.mp (by show _ = 13; omega))
        have HS : Hid (pre ++ [s[k]'hlt] ++ nlR (s.data.toList.drop (k + 1)) = R) := Lib.hid (by
          rw [← HP.out, HD.out, nlR_b _ _ hb]
          simp)
        clear hb
        go_wp2_with (first
          | (at_builtin; refine wpList_append_own _ rfl _ _ 75 rfl w.heap.size 5 i0 (.int .u8 0) 1 1 Tryz.underlying75 hi hz0 hz1 hz2 rfl (by decide) _ _ _ rfl (hown.alloc _) ⟨_, 0, none⟩ 1 1 [.int .u8 ((s[k]'hlt).toNat : Int)] rfl rfl (one_cell _ _ _) (one_one _) (by unfold maxLen; omega) (by omega) (by simp; omega) ?_; intro v' w1 hown' hgrow _))
        have hB' := own_grown hB hown rfl hgrow
        have HO : Hid (w1.ownsRow w.heap.size 5 1 v' (n + 1) (u8c (pre ++ [s[k]'hlt]))) := Lib.hid (by
          have := hown'
          simpa [u8c] using this)
        clear hown' hgrow hown hB
        go_wp2
        go_roundw
        case rel => exact ⟨k + 1, n + 1, pre ++ [s[k]'hlt], by omega, by omega, by go_num, by have := HLN.out; simp; omega, HS.out, HO.out, hB'⟩
        case measure => simp [intOf]; omega
    · have hl : pre = R := by
        have := HP.out
        rw [drop_end s k (by omega)] at this
        simpa [nlR] using this
      have hown2 := hown
      rw [← HLN.out, hl] at hown2
      have hbk := bytes_back hown2
      clear hown2 hl
      go_wp2
      go_ret
      exact ⟨rfl, hB⟩
end Go.Proofs.YtnfccckodgknjaaGreatDoor

namespace Go.Proofs.YtnfccckodgknjaaGreatDoor
open Go.RowKit
set_option maxHeartbeats 1000000
set_option maxRecDepth 100000

theorem nlS_list (s : ByteArray) : (nlS s).data.toList = nlR s.data.toList := by simp [nlS]
theorem nlS_size (s : ByteArray) : (nlS s).size ≤ s.size := by
  have h := nlR_len _ s.data.toList (Nat.le_refl _)
  rw [← nlS_list, size_list, size_list] at h
  exact h
theorem nlS_nlS (s : ByteArray) : nlS (nlS s) = nlS s := by
  apply list_bytes
  rw [nlS_list, nlS_list]
  exact nlR_same _ (nlR_no _ _ (Nat.le_refl _))
theorem nlS_no (s : ByteArray) : allB (fun b => !(b == 13)) (nlS s) = true := by
  unfold allB
  rw [nlS_list, List.all_eq_true]
  intro x hx
  have := nlR_no _ _ (Nat.le_refl _) x hx
  simp only [Bool.not_eq_true']
  rw [beq_eq_false_iff_ne]
  intro e
  exact this (UInt8.toNat_inj.mp (by show _ = 13; omega))
theorem newlinesS (s : ByteArray) (m : Int) (hs : s.size ≤ 400000) (w : World) (hm : Ml m w) :
    Calls Tryz.prog 98 #[.string s] w fun e w' => e = .returned (.string (nlS s)) ∧ Below w.heap.size w w' := by
  refine (newlines s m hs w hm).mono ?_
  rintro e w' ⟨S, hS, rfl, hb⟩
  have : S = nlS s := list_bytes _ _ (by rw [hS, nlS_list, newL_nlR _ _ (Nat.le_refl _)])
  rw [this]
  exact ⟨rfl, hb⟩

end Go.Proofs.YtnfccckodgknjaaGreatDoor

namespace Go.Proofs.YtnfccckodgknjaaGreatDoor
open Go.RowKit
set_option maxHeartbeats 1000000
set_option maxRecDepth 100000

theorem decS_app (a b : ByteArray) : decS (decS a ++ b) = decS a ++ decS b := by
  apply list_bytes
  rw [decS_decL, ByteArray.data_append, ByteArray.data_append, Array.toList_append, Array.toList_append, decS_decL, decL_app, decS_decL]
theorem decS_decS (a : ByteArray) : decS (decS a) = decS a := by
  apply list_bytes
  rw [decS_decL, decS_decL, decL_decL]
theorem cnt_both (a b : ByteArray) : (piecesB (decS a ++ decS b)).length = (piecesB a).length + (piecesB b).length := by
  rw [← decS_app, piecesB_length, piecesB_length, piecesB_length, decS_decL, cnt_dec, ByteArray.data_append, Array.toList_append, decS_decL, cnt_app]

end Go.Proofs.YtnfccckodgknjaaGreatDoor

namespace Go.Proofs.YtnfccckodgknjaaGreatDoor
open Go.RowKit
set_option maxHeartbeats 1000000
set_option maxRecDepth 100000

/-- Bytes that are decoded to themselves, all pieces whole. -/
def Whole1 (l : List UInt8) : Prop := ∀ q ∈ piecesL l, q.2 = true
theorem whole_dec (l : List UInt8) : Whole1 (decL l) := by
  have h := dec_app l []
  rw [List.append_nil, pieces_nil, List.append_nil] at h
  intro q hq
  rw [h] at hq
  obtain ⟨x, _, rfl⟩ := List.mem_map.mp hq
  rfl
theorem piecesF_join : ∀ (n : Nat) (l : List UInt8), l.length ≤ n → (piecesL l).flatMap (·.1) = l
  | _, [], _ => rfl
  | 0, b :: t, h => by simp at h
  | n + 1, b :: t, h => by
    have hp := measTab_pos encT b t
    rw [piecesL_cons, List.flatMap_cons, piecesF_join n _ (by simp at h ⊢; omega), List.take_append_drop]
theorem whole_same {l : List UInt8} (h : Whole1 l) : decL l = l := by
  conv => rhs; rw [← piecesF_join _ l (Nat.le_refl _)]
  unfold decL
  unfold Whole1 at h
  generalize piecesL l = ps at h
  induction ps with
  | nil => rfl
  | cons q ps ih =>
    rw [List.flatMap_cons, List.flatMap_cons, ih fun x hx => h x (by simp [hx])]
    unfold okP
    rw [if_pos (h q (by simp))]

/-- A byte below 128 is a whole piece, whatever follows. -/
theorem ascii_piece (b : UInt8) (t : List UInt8) (hb : b.toNat < 128) : piecesL (b :: t) = ([b], true) :: piecesL t := by
  have e : measTab encT b t = (1, true) := by
    show (if inB 0 127 b.toNat then measRest [] t 1 else _) = _
    rw [if_pos (by simp [inB]; omega)]
    cases t <;> rfl
  rw [piecesL_cons, e]
  rfl
/-- No piece of two or more whole bytes holds a byte below 128. -/
theorem rest_high (R : List (Int × Int)) (hR : ∀ p ∈ R, 128 ≤ p.1) : ∀ (l : List UInt8) (n n' : Nat), measRest R l n = (n', true) → ∀ x ∈ l.take (n' - n), 128 ≤ x.toNat := by
  induction R with
  | nil =>
    intro l n n' h
    have : measRest [] l n = (n, true) := by cases l <;> rfl
    rw [this] at h
    have e : n = n' := congrArg Prod.fst h
    subst e
    simp
  | cons p R ih =>
    obtain ⟨lo, hi⟩ := p
    intro l n n' h
    cases l with
    | nil => simp
    | cons b t =>
      unfold measRest at h
      split at h
      · rename_i hx
        have hn := (rest_true R t (n + 1) n' h).1
        have h2 := ih (fun p hp => hR p (by simp [hp])) t (n + 1) n' h
        have hlo := hR (lo, hi) (by simp)
        obtain ⟨k, hk⟩ : ∃ k, n' - n = k + 1 := ⟨n' - n - 1, by omega⟩
        rw [hk, List.take_succ_cons]
        intro x hx2
        rw [List.mem_cons] at hx2
        rcases hx2 with rfl | hx2
        · simp [inB] at hx
          simp at hlo
          omega
        · exact h2 x (by rw [show n' - (n + 1) = k by omega]; exact hx2)
      · simp at h
theorem tab_high (b : UInt8) (t : List UInt8) (hb : 128 ≤ b.toNat) : ∀ (T : List (Int × Int × List (Int × Int))), (∀ e ∈ T, ∀ p ∈ e.2.2, 128 ≤ p.1) → ∀ n', measTab T b t = (n', true) → ∀ x ∈ (b :: t).take n', 128 ≤ x.toNat
  | [], _, n', h => by simp [measTab] at h
  | (lo, hi, rs) :: es, hT, n', h => by
    have h1 := (tab_true b t ((lo, hi, rs) :: es) n' h).1
    obtain ⟨k, rfl⟩ : ∃ k, n' = k + 1 := ⟨n' - 1, by omega⟩
    unfold measTab at h
    split at h
    · have h2 := rest_high rs (hT (lo, hi, rs) (by simp)) t 1 (k + 1) h
      rw [Nat.add_sub_cancel] at h2
      rw [List.take_succ_cons]
      intro x hx
      rw [List.mem_cons] at hx
      rcases hx with rfl | hx
      · exact hb
      · exact h2 x hx
    · exact tab_high b t hb es (fun e he => hT e (by simp [he])) (k + 1) h

theorem nlR_pre (p : List UInt8) (hp : ∀ x ∈ p, 128 ≤ x.toNat) (r : List UInt8) : nlR (p ++ r) = p ++ nlR r := by
  induction p with
  | nil => rfl
  | cons b t ih =>
    have hb : ¬ b = 13 := fun e => by
      have := hp b (by simp)
      rw [e] at this
      simp at this
    rw [List.cons_append, nlR_b b _ hb, ih fun x hx => hp x (by simp [hx])]
    rfl

/-- Line ends of whole bytes leave whole bytes, no more of them. -/
theorem whole_nl : ∀ (n : Nat) (l : List UInt8), l.length ≤ n → Whole1 l → Whole1 (nlR l) ∧ (piecesL (nlR l)).length ≤ (piecesL l).length
  | _, [], _, h => ⟨h, Nat.le_refl _⟩
  | 0, b :: t, h, _ => by simp at h
  | n + 1, b :: t, h, hw => by
    by_cases hb : b.toNat < 128
    · have e := ascii_piece b t hb
      have hwt : Whole1 t := by
        intro q hq
        exact hw q (by rw [e]; simp [hq])
      obtain ⟨i1, i2⟩ := whole_nl n t (by simp at h; omega) hwt
      by_cases h13 : b = 13
      · subst h13
        by_cases h10 : t.head? = some 10
        · cases t with
          | nil => simp at h10
          | cons x t =>
            simp at h10
            subst h10
            rw [nlR_skip]
            refine ⟨i1, ?_⟩
            rw [e, List.length_cons]
            omega
        · rw [nlR_10 t h10]
          have e2 := ascii_piece 10 (nlR t) (by decide)
          refine ⟨?_, ?_⟩
          · intro q hq
            rw [e2, List.mem_cons] at hq
            rcases hq with rfl | hq
            · rfl
            · exact i1 q hq
          · rw [e, e2, List.length_cons, List.length_cons]
            omega
      · rw [nlR_b b t h13]
        have e2 := ascii_piece b (nlR t) hb
        refine ⟨?_, ?_⟩
        · intro q hq
          rw [e2, List.mem_cons] at hq
          rcases hq with rfl | hq
          · rfl
          · exact i1 q hq
        · rw [e, e2, List.length_cons, List.length_cons]
          omega
    · have hp := measTab_pos encT b t
      have hc : (measTab encT b t).2 = true := hw ((b :: t).take (measTab encT b t).1, (measTab encT b t).2) (by rw [piecesL_cons]; simp)
      have hhi := tab_high b t (by omega) encT (by decide) (measTab encT b t).1 (by rw [← hc])
      have hq := isP_first b t
      have hwt : Whole1 ((b :: t).drop (measTab encT b t).1) := by
        intro q hq
        exact hw q (by rw [piecesL_cons]; simp [hq])
      obtain ⟨i1, i2⟩ := whole_nl n ((b :: t).drop (measTab encT b t).1) (by simp at h ⊢; omega) hwt
      have hok := hq.ok (nlR ((b :: t).drop (measTab encT b t).1))
      unfold okP at hok
      simp only [hc, if_true] at hok
      have e3 : nlR (b :: t) = (b :: t).take (measTab encT b t).1 ++ nlR ((b :: t).drop (measTab encT b t).1) := by
        conv => lhs; rw [← List.take_append_drop (measTab encT b t).1 (b :: t)]
        exact nlR_pre _ hhi _
      have e4 : (piecesL (b :: t)).length = 1 + (piecesL ((b :: t).drop (measTab encT b t).1)).length := by rw [piecesL_cons, List.length_cons]; omega
      rw [e3, hok]
      refine ⟨?_, ?_⟩
      · intro q hq
        rw [hok, List.mem_cons] at hq
        rcases hq with rfl | hq
        · rfl
        · exact i1 q hq
      · rw [e4, List.length_cons]
        omega

theorem nlR_no13 (p r : List UInt8) (hp : ∀ x ∈ p, x ≠ 13) : nlR (p ++ r) = p ++ nlR r := by
  induction p with
  | nil => rfl
  | cons b t ih => rw [List.cons_append, nlR_b b _ (hp b (by simp)), ih fun x hx => hp x (by simp [hx])]; rfl

/-- What input is read as. -/
def inpS (s : ByteArray) : ByteArray := nlS (decS s)
theorem inp_whole (s : ByteArray) : Whole1 (inpS s).data.toList ∧ (piecesB (inpS s)).length ≤ s.size := by
  unfold inpS
  rw [piecesB_length, nlS_list, decS_decL]
  have h := whole_nl _ (decL s.data.toList) (Nat.le_refl _) (whole_dec _)
  refine ⟨h.1, ?_⟩
  have h2 := piecesB_len s
  rw [piecesB_length] at h2
  have h3 := cnt_dec s.data.toList
  omega
theorem inp_valid (s : ByteArray) : ((piecesB (inpS s)).all fun x => x.1.2) = true := by
  have h := (inp_whole s).1
  unfold piecesB
  rw [List.all_map, List.all_eq_true]
  intro q hq
  exact h q hq
theorem inp_dec (s : ByteArray) : decS (inpS s) = inpS s := by
  apply list_bytes
  rw [decS_decL]
  exact whole_same (inp_whole s).1
theorem inp_inp (s : ByteArray) : inpS (inpS s) = inpS s := by
  show nlS (decS (inpS s)) = _
  rw [inp_dec]
  exact nlS_nlS _
theorem inp_no (s : ByteArray) : allB (fun b => !(b == 13)) (inpS s) = true := nlS_no _
theorem inp_decEnd (s : ByteArray) : decS (inpS s ++ ⟨#[13, 10]⟩) = inpS s ++ ⟨#[13, 10]⟩ := by
  have h := decS_app (inpS s) ⟨#[13, 10]⟩
  rw [inp_dec] at h
  rw [h, show decS ⟨#[13, 10]⟩ = ⟨#[13, 10]⟩ from by decide +kernel]
theorem inp_end (s : ByteArray) : inpS (inpS s ++ ⟨#[13, 10]⟩) = inpS s ++ ⟨#[10]⟩ := by
  show nlS (decS (inpS s ++ ⟨#[13, 10]⟩)) = _
  rw [inp_decEnd]
  apply list_bytes
  rw [nlS_list, ByteArray.data_append, ByteArray.data_append, Array.toList_append, Array.toList_append]
  refine nlR_no13 _ _ ?_
  unfold inpS
  rw [nlS_list]
  exact nlR_no _ _ (Nat.le_refl _)
theorem inpS_size (s : ByteArray) : (inpS s).size ≤ 3 * s.size := Nat.le_trans (nlS_size _) (decS_size3 s)

theorem inputS (s : ByteArray) (m : Int) (hs : s.size ≤ 400000) (hz : (decS s).size ≤ 400000) (w : World) (hm : Ml m w) :
    Calls Tryz.prog 43 #[.string s] w fun e w' => e = .returned (.string (inpS s)) ∧ Below w.heap.size w w' := by
  have HM := Lib.hid hm
  clear hm
  have hi : inpS s = nlS (decS s) := rfl
  rw [hi]
  clear hi
  go_enter Tryz.func43, Tryz.ntmps43
  go_wp2_with fail
  refine (decode s (by omega) w).mono ?_
  rintro e w1 ⟨rfl, hb1⟩
  generalize hd : decS s = d at hz ⊢
  have HD := Lib.hid hd
  clear hd
  have HN := Lib.hid (newlinesS d m (by omega) w1 (carry HM.out hb1))
  go_wp2_with fail
  refine HN.out.mono ?_
  rintro e w2 ⟨rfl, hb2⟩
  go_wp2_with fail
  go_ret
  exact ⟨by rw [HD.out]; rfl, below_next hb1 hb2⟩

end Go.Proofs.YtnfccckodgknjaaGreatDoor

namespace Go.Proofs.YtnfccckodgknjaaGreatDoor
open Go.RowKit
set_option maxHeartbeats 1000000
set_option maxRecDepth 100000

def wantZ (b : Int) : Int := if b < 128 then 1 else if 194 ≤ b ∧ b ≤ 223 then 2 else if 224 ≤ b ∧ b ≤ 239 then 3 else if 240 ≤ b ∧ b ≤ 244 then 4 else 0
def moreB (c : Int) : Bool := decide (128 ≤ c) && decide (c ≤ 191)
def secB (a c : Int) : Bool :=
  if a = 224 then decide (160 ≤ c) && decide (c ≤ 191) else if a = 237 then decide (128 ≤ c) && decide (c ≤ 159) else if a = 240 then decide (144 ≤ c) && decide (c ≤ 191) else if a = 244 then decide (128 ≤ c) && decide (c ≤ 143) else moreB c

theorem rMore (c : Int) (w : World) : Calls Tryz.prog 235 #[.int .u8 c] w fun e w' => e = .returned (.bool (moreB c)) ∧ w' = w := by
  go_enter Tryz.func235, Tryz.ntmps235
  go_wp2
  all_goals go_ret
  all_goals exact ⟨ret_bool (by rw [Bool.eq_iff_iff]; simp [moreB, *] <;> omega), rfl⟩
theorem secB_224 (c : Int) : secB 224 c = (decide (160 ≤ c) && decide (c ≤ 191)) := rfl
theorem secB_237 (c : Int) : secB 237 c = (decide (128 ≤ c) && decide (c ≤ 159)) := rfl
theorem secB_240 (c : Int) : secB 240 c = (decide (144 ≤ c) && decide (c ≤ 191)) := rfl
theorem secB_244 (c : Int) : secB 244 c = (decide (128 ≤ c) && decide (c ≤ 143)) := rfl
theorem secB_oth (a c : Int) (h1 : ¬ a = 224) (h2 : ¬ a = 237) (h3 : ¬ a = 240) (h4 : ¬ a = 244) : secB a c = moreB c := by unfold secB; rw [if_neg h1, if_neg h2, if_neg h3, if_neg h4]
theorem rSecond (a c : Int) (w : World) : Calls Tryz.prog 234 #[.int .u8 a, .int .u8 c] w fun e w' => e = .returned (.bool (secB a c)) ∧ w' = w := by
  by_cases h1 : a = 224
  · subst h1
    go_enter Tryz.func234, Tryz.ntmps234
    go_wp2
    all_goals go_ret
    all_goals exact ⟨ret_bool (by rw [secB_224, Bool.eq_iff_iff]; simp [*] <;> omega), rfl⟩
  by_cases h2 : a = 237
  · subst h2
    go_enter Tryz.func234, Tryz.ntmps234
    go_wp2
    all_goals go_ret
    all_goals exact ⟨ret_bool (by rw [secB_237, Bool.eq_iff_iff]; simp [*] <;> omega), rfl⟩
  by_cases h3 : a = 240
  · subst h3
    go_enter Tryz.func234, Tryz.ntmps234
    go_wp2
    all_goals go_ret
    all_goals exact ⟨ret_bool (by rw [secB_240, Bool.eq_iff_iff]; simp [*] <;> omega), rfl⟩
  by_cases h4 : a = 244
  · subst h4
    go_enter Tryz.func234, Tryz.ntmps234
    go_wp2
    all_goals go_ret
    all_goals exact ⟨ret_bool (by rw [secB_244, Bool.eq_iff_iff]; simp [*] <;> omega), rfl⟩
  have HS := Lib.hid (secB_oth a c h1 h2 h3 h4)
  have g1 := beq_eq_false_iff_ne.mpr h1
  have g2 := beq_eq_false_iff_ne.mpr h2
  have g3 := beq_eq_false_iff_ne.mpr h3
  have g4 := beq_eq_false_iff_ne.mpr h4
  go_enter Tryz.func234, Tryz.ntmps234
  go_wp2_with (go_at_call 235; refine (rMore _ _).mono ?_; rintro e w' ⟨rfl, rfl⟩)
  all_goals go_ret
  all_goals exact ⟨ret_bool (by rw [HS.out]), rfl⟩
theorem rWant (b : Int) (w : World) : Calls Tryz.prog 204 #[.int .u8 b] w fun e w' => e = .returned (.int .i64 (wantZ b)) ∧ w' = w := by
  go_enter Tryz.func204, Tryz.ntmps204
  go_wp2
  all_goals go_ret
  all_goals exact ⟨ret_int (by unfold wantZ; (repeat' split) <;> omega), rfl⟩

/-- An encoding or a partial encoding (of the length that its first byte wants, or less). -/
def contB (a : Int) : List UInt8 → Nat → Bool
  | [], _ => true
  | x :: t, i => (if i = 1 then secB a x.toNat else true) && moreB x.toNat && contB a t (i + 1)
theorem rBegins (s : ByteArray) (h0 : 0 < s.size) (hs : s.size ≤ maxLen) (hw : ¬ wantZ ((s[0]'h0).toNat : Int) < (s.size : Int)) (w : World) :
    Calls Tryz.prog 203 #[.string s] w fun e w' => e = .returned (.bool (contB ((s[0]'h0).toNat : Int) (s.data.toList.drop 1) 1)) ∧ Below w.heap.size w w' := by
  unfold maxLen at hs
  have hz : ((s.size : Int) == 0) = false := by rw [beq_eq_false_iff_ne]; omega
  obtain ⟨res, hres⟩ : ∃ res, res = contB ((s[0]'h0).toNat : Int) (s.data.toList.drop 1) 1 := ⟨_, rfl⟩
  rw [← hres]
  have HR := Lib.hid hres
  clear hres
  have HW := Lib.hid hw
  have hwd : decide (wantZ ((s[0]'h0).toNat : Int) < (s.size : Int)) = false := by simpa using hw
  go_enter Tryz.func203, Tryz.ntmps203
  go_wp2_with (go_at_call 204; refine (rWant _ _).mono ?_; rintro e w' ⟨rfl, rfl⟩)
  clear hw hwd
  go_loopw [3] (fun i wr => ∃ k : Nat, 1 ≤ k ∧ k ≤ s.size ∧ i = .int .i64 k ∧ contB ((s[0]'h0).toNat : Int) (s.data.toList.drop k) k = res ∧ Below w'.heap.size w' wr) (fun i _ => s.size - (intOf i).toNat)
  case atStart => exact ⟨1, Nat.le_refl _, h0, rfl, HR.out.symm, Below.refl _ _⟩
  case round =>
    obtain ⟨k, hk1, hk, rfl, hc, hB⟩ := hrel
    by_cases hlt : k < s.size
    · have hI : (k : Int) < (s.size : Int) := by omega
      have hI1 : (1 : Int) ≤ (k : Int) := by omega
      rw [drop_byte s k hlt, contB] at hc
      have HC := Lib.hid hc
      clear hc
      cases hm : moreB ((s[k]'hlt).toNat : Int)
      all_goals by_cases h1 : k = 1
      · have hk2 : ((k : Int) == 1) = true := by rw [beq_iff_eq]; omega
        have hI0 : (0 : Int) < (s.size : Int) := by omega
        have hI2 : (1 : Int) < (s.size : Int) := by omega
        cases hs2 : secB ((s[0]'h0).toNat : Int) ((s[k]'hlt).toNat : Int)
        all_goals
          have HC2 : Hid (false = res) := Lib.hid (by have := HC.out; rw [hm] at this; simpa using this)
          have hs3 : secB ((s[0]'h0).toNat : Int) ((s[1]'(by omega)).toNat : Int) = secB ((s[0]'h0).toNat : Int) ((s[k]'hlt).toNat : Int) := by subst h1; rfl
          rw [hs2] at hs3
          have hm3 : moreB ((s[1]'(by omega)).toNat : Int) = moreB ((s[k]'hlt).toNat : Int) := by subst h1; rfl
          rw [hm] at hm3
          go_wp2_with fail
          go_quiet (first | (go_at_call 234; exact Calls.quiet_of_same (rSecond _ _ _)) | (go_at_call 235; exact Calls.quiet_of_same (rMore _ _)))
          go_wp2_with fail
          go_ret
          exact ⟨ret_bool HC2.out, _root_.Go.below_drewN hB nq⟩
      · have hk2 : ((k : Int) == 1) = false := by rw [beq_eq_false_iff_ne]; omega
        have HC2 : Hid (false = res) := Lib.hid (by have := HC.out; rw [hm] at this; simpa using this)
        go_wp2_with fail
        go_quiet (first | (go_at_call 234; exact Calls.quiet_of_same (rSecond _ _ _)) | (go_at_call 235; exact Calls.quiet_of_same (rMore _ _)))
        go_wp2_with fail
        go_ret
        exact ⟨ret_bool HC2.out, _root_.Go.below_drewN hB nq⟩
      · have hk2 : ((k : Int) == 1) = true := by rw [beq_iff_eq]; omega
        have hI0 : (0 : Int) < (s.size : Int) := by omega
        have hI2 : (1 : Int) < (s.size : Int) := by omega
        have hs3 : secB ((s[0]'h0).toNat : Int) ((s[1]'(by omega)).toNat : Int) = secB ((s[0]'h0).toNat : Int) ((s[k]'hlt).toNat : Int) := by subst h1; rfl
        cases hs2 : secB ((s[0]'h0).toNat : Int) ((s[k]'hlt).toNat : Int)
        · have HC2 : Hid (false = res) := Lib.hid (by have := HC.out; rw [hm, hs2, if_pos h1] at this; simpa using this)
          rw [hs2] at hs3
          have hm3 : moreB ((s[1]'(by omega)).toNat : Int) = moreB ((s[k]'hlt).toNat : Int) := by subst h1; rfl
          rw [hm] at hm3
          go_wp2_with fail
          go_quiet (first | (go_at_call 234; exact Calls.quiet_of_same (rSecond _ _ _)) | (go_at_call 235; exact Calls.quiet_of_same (rMore _ _)))
          go_wp2_with fail
          go_ret
          exact ⟨ret_bool HC2.out, _root_.Go.below_drewN hB nq⟩
        · have HC2 : Hid (contB ((s[0]'h0).toNat : Int) (s.data.toList.drop (k + 1)) (k + 1) = res) := Lib.hid (by have := HC.out; rw [hm, hs2, if_pos h1] at this; simpa using this)
          rw [hs2] at hs3
          have hm3 : moreB ((s[1]'(by omega)).toNat : Int) = moreB ((s[k]'hlt).toNat : Int) := by subst h1; rfl
          rw [hm] at hm3
          go_wp2_with fail
          go_quiet (first | (go_at_call 234; exact Calls.quiet_of_same (rSecond _ _ _)) | (go_at_call 235; exact Calls.quiet_of_same (rMore _ _)))
          go_wp2_with fail
          go_roundw
          case rel => exact ⟨k + 1, by omega, by omega, by go_num, HC2.out, _root_.Go.below_drewN hB nq⟩
          case measure => simp [intOf]; omega
      · have hk2 : ((k : Int) == 1) = false := by rw [beq_eq_false_iff_ne]; omega
        have HC2 : Hid (contB ((s[0]'h0).toNat : Int) (s.data.toList.drop (k + 1)) (k + 1) = res) := Lib.hid (by have := HC.out; rw [hm, if_neg h1] at this; simpa using this)
        go_wp2_with fail
        go_quiet (first | (go_at_call 234; exact Calls.quiet_of_same (rSecond _ _ _)) | (go_at_call 235; exact Calls.quiet_of_same (rMore _ _)))
        go_wp2_with fail
        go_roundw
        case rel => exact ⟨k + 1, by omega, by omega, by go_num, HC2.out, _root_.Go.below_drewN hB nq⟩
        case measure => simp [intOf]; omega
    · rw [drop_end s k (by omega)] at hc
      have HC := Lib.hid hc
      clear hc
      go_wp2_with fail
      go_ret
      exact ⟨ret_bool (by rw [← HC.out]; rfl), hB⟩
end Go.Proofs.YtnfccckodgknjaaGreatDoor

namespace Go.Proofs.YtnfccckodgknjaaGreatDoor
open Go.RowKit
set_option maxHeartbeats 2000000

theorem tab_skip (lo hi : Int) (rs : List (Int × Int)) (es : List (Int × Int × List (Int × Int))) (b : UInt8) (t : List UInt8) (h : (b.toNat : Int) < lo ∨ hi < (b.toNat : Int)) : measTab ((lo, hi, rs) :: es) b t = measTab es b t := by
  conv => lhs; unfold measTab
  rw [if_neg (by simp [inB]; omega)]
theorem tab_hit (lo hi : Int) (rs : List (Int × Int)) (es : List (Int × Int × List (Int × Int))) (b : UInt8) (t : List UInt8) (h : lo ≤ (b.toNat : Int)) (h2 : (b.toNat : Int) ≤ hi) : measTab ((lo, hi, rs) :: es) b t = measRest rs t 1 := by
  conv => lhs; unfold measTab
  rw [if_pos (by simp [inB]; omega)]

theorem sec_more (a x lo hi : Int) (hs : secB a x = (decide (lo ≤ x) && decide (x ≤ hi))) (h1 : 128 ≤ lo) (h2 : hi ≤ 191) : (secB a x && moreB x) = inB lo hi x := by
  rw [hs, Bool.eq_iff_iff]
  simp [moreB, inB]
  omega
theorem mr_cons (lo hi : Int) (rs : List (Int × Int)) (x : UInt8) (t : List UInt8) (n : Nat) : measRest ((lo, hi) :: rs) (x :: t) n = if inB lo hi x.toNat then measRest rs t (n + 1) else (n, false) := rfl
theorem cb_one (a : Int) (x : UInt8) (t : List UInt8) : contB a (x :: t) 1 = (secB a x.toNat && moreB x.toNat && contB a t 2) := by rw [contB, if_pos rfl]
theorem cb_more (a : Int) (x : UInt8) (t : List UInt8) (i : Nat) (h : 1 < i) : contB a (x :: t) i = (moreB x.toNat && contB a t (i + 1)) := by rw [contB, if_neg (by omega), Bool.true_and]
theorem more_in (x : Int) : moreB x = inB 128 191 x := rfl

/-- What the first piece's wholeness is, for a first byte that wants n bytes, the second of them from lo to hi. -/
theorem row_whole (a : Int) (lo hi : Int) (hs : ∀ x, (secB a x && moreB x) = inB lo hi x) (k : Nat) (t : List UInt8) :
    (measRest ((lo, hi) :: List.replicate k (128, 191)) t 1).2 = (decide (k + 1 ≤ t.length) && contB a (t.take (k + 1)) 1) ∧ ((measRest ((lo, hi) :: List.replicate k (128, 191)) t 1).2 = true → (measRest ((lo, hi) :: List.replicate k (128, 191)) t 1).1 = k + 2) := by
  have tail : ∀ (k : Nat) (t : List UInt8) (n i : Nat), 1 < i → (measRest (List.replicate k (128, 191)) t n).2 = (decide (k ≤ t.length) && contB a (t.take k) i) ∧ ((measRest (List.replicate k (128, 191)) t n).2 = true → (measRest (List.replicate k (128, 191)) t n).1 = n + k) := by
    intro k
    induction k with
    | zero => intro t n i _; cases t <;> simp [measRest, contB]
    | succ k ih =>
      intro t n i hi
      cases t with
      | nil => simp [measRest, List.replicate_succ]
      | cons x t =>
        obtain ⟨h1, h2⟩ := ih t (n + 1) (i + 1) (by omega)
        rw [List.replicate_succ, mr_cons, List.take_succ_cons, cb_more _ _ _ _ hi, more_in]
        cases hx : inB 128 191 (x.toNat : Int) with
        | true =>
          rw [if_pos rfl, h1]
          refine ⟨by simp, ?_⟩
          intro hh
          rw [← h1] at hh
          rw [h2 hh]
          omega
        | false => simp
  cases t with
  | nil => simp [measRest]
  | cons x t =>
    obtain ⟨h1, h2⟩ := tail k t 2 2 (by omega)
    rw [mr_cons, List.take_succ_cons, cb_one, hs]
    cases hx : inB lo hi (x.toNat : Int) with
    | true =>
      rw [if_pos rfl, h1]
      refine ⟨by simp, ?_⟩
      intro hh
      rw [← h1] at hh
      rw [h2 hh]
      omega
    | false => simp

theorem first_whole (b : UInt8) (t : List UInt8) :
    (measTab encT b t).2 = (decide (¬ wantZ (b.toNat : Int) = 0) && decide (wantZ (b.toNat : Int) ≤ 1 + (t.length : Int)) && contB (b.toNat : Int) (t.take ((wantZ (b.toNat : Int)).toNat - 1)) 1) ∧ ((measTab encT b t).2 = true → ((measTab encT b t).1 : Int) = wantZ (b.toNat : Int)) := by
  have hl := b.toNat_lt
  have go : ∀ (lo hi : Int) (k : Nat), measTab encT b t = measRest ((lo, hi) :: List.replicate k (128, 191)) t 1 → wantZ (b.toNat : Int) = k + 2 → (∀ x, (secB (b.toNat : Int) x && moreB x) = inB lo hi x) →
      (measTab encT b t).2 = (decide (¬ wantZ (b.toNat : Int) = 0) && decide (wantZ (b.toNat : Int) ≤ 1 + (t.length : Int)) && contB (b.toNat : Int) (t.take ((wantZ (b.toNat : Int)).toNat - 1)) 1) ∧ ((measTab encT b t).2 = true → ((measTab encT b t).1 : Int) = wantZ (b.toNat : Int)) := by
    intro lo hi k e hw hs
    obtain ⟨h1, h2⟩ := row_whole (b.toNat : Int) lo hi hs k t
    rw [← e] at h1 h2
    rw [hw]
    have e2 : ((k : Int) + 2).toNat - 1 = k + 1 := by omega
    rw [e2]
    refine ⟨?_, fun h => by rw [h2 h]; omega⟩
    rw [h1]
    have e3 : decide (¬ (k : Int) + 2 = 0) = true := by simp; omega
    have e4 : decide ((k : Int) + 2 ≤ 1 + (t.length : Int)) = decide (k + 1 ≤ t.length) := by rw [Bool.eq_iff_iff]; simp; omega
    rw [e3, e4, Bool.true_and]
  have none : measTab encT b t = (1, false) → wantZ (b.toNat : Int) = 0 → (measTab encT b t).2 = (decide (¬ wantZ (b.toNat : Int) = 0) && decide (wantZ (b.toNat : Int) ≤ 1 + (t.length : Int)) && contB (b.toNat : Int) (t.take ((wantZ (b.toNat : Int)).toNat - 1)) 1) ∧ ((measTab encT b t).2 = true → ((measTab encT b t).1 : Int) = wantZ (b.toNat : Int)) := by
    intro e hw
    rw [e, hw]
    simp
  generalize hG : ((measTab encT b t).2 = (decide (¬ wantZ (b.toNat : Int) = 0) && decide (wantZ (b.toNat : Int) ≤ 1 + (t.length : Int)) && contB (b.toNat : Int) (t.take ((wantZ (b.toNat : Int)).toNat - 1)) 1) ∧ ((measTab encT b t).2 = true → ((measTab encT b t).1 : Int) = wantZ (b.toNat : Int))) = G at go none ⊢
  by_cases g1 : b.toNat < 128
  · rw [← hG]
    have e : measTab encT b t = (1, true) := by
      unfold encT
      rw [tab_hit _ _ _ _ _ _ (by omega) (by omega)]
      cases t <;> rfl
    have hw : wantZ (b.toNat : Int) = 1 := by unfold wantZ; rw [if_pos (by omega)]
    rw [e, hw]
    simp [contB]
    omega
  by_cases g2 : b.toNat < 194 ∨ 245 ≤ b.toNat
  · refine none ?_ (by unfold wantZ; rw [if_neg (by omega), if_neg (by omega), if_neg (by omega), if_neg (by omega)])
    unfold encT
    rw [tab_skip _ _ _ _ _ _ (by omega), tab_skip _ _ _ _ _ _ (by omega), tab_skip _ _ _ _ _ _ (by omega), tab_skip _ _ _ _ _ _ (by omega), tab_skip _ _ _ _ _ _ (by omega), tab_skip _ _ _ _ _ _ (by omega), tab_skip _ _ _ _ _ _ (by omega), tab_skip _ _ _ _ _ _ (by omega), tab_skip _ _ _ _ _ _ (by omega)]
    rfl
  have hoth : ∀ x, ¬ b.toNat = 224 → ¬ b.toNat = 237 → ¬ b.toNat = 240 → ¬ b.toNat = 244 → (secB (b.toNat : Int) x && moreB x) = inB 128 191 x := by
    intro x a1 a2 a3 a4
    rw [secB_oth _ _ (by omega) (by omega) (by omega) (by omega), Bool.and_self]
    rfl
  by_cases g3 : b.toNat ≤ 223
  · refine go 128 191 0 ?_ (by unfold wantZ; rw [if_neg (by omega), if_pos (by omega)]; rfl) (fun x => hoth x (by omega) (by omega) (by omega) (by omega))
    unfold encT
    rw [tab_skip _ _ _ _ _ _ (by omega), tab_hit _ _ _ _ _ _ (by omega) (by omega)]
    rfl
  by_cases g4 : b.toNat ≤ 239
  · have hw : wantZ (b.toNat : Int) = (1 : Nat) + 2 := by unfold wantZ; rw [if_neg (by omega), if_neg (by omega), if_pos (by omega)]; rfl
    by_cases a1 : b.toNat = 224
    · refine go 160 191 1 ?_ hw (fun x => sec_more _ x 160 191 (by rw [a1]; rfl) (by omega) (by omega))
      unfold encT
      rw [tab_skip _ _ _ _ _ _ (by omega), tab_skip _ _ _ _ _ _ (by omega), tab_hit _ _ _ _ _ _ (by omega) (by omega)]
      rfl
    by_cases a2 : b.toNat ≤ 236
    · refine go 128 191 1 ?_ hw (fun x => hoth x (by omega) (by omega) (by omega) (by omega))
      unfold encT
      rw [tab_skip _ _ _ _ _ _ (by omega), tab_skip _ _ _ _ _ _ (by omega), tab_skip _ _ _ _ _ _ (by omega), tab_hit _ _ _ _ _ _ (by omega) (by omega)]
      rfl
    by_cases a3 : b.toNat = 237
    · refine go 128 159 1 ?_ hw (fun x => sec_more _ x 128 159 (by rw [a3]; rfl) (by omega) (by omega))
      unfold encT
      rw [tab_skip _ _ _ _ _ _ (by omega), tab_skip _ _ _ _ _ _ (by omega), tab_skip _ _ _ _ _ _ (by omega), tab_skip _ _ _ _ _ _ (by omega), tab_hit _ _ _ _ _ _ (by omega) (by omega)]
      rfl
    · refine go 128 191 1 ?_ hw (fun x => hoth x (by omega) (by omega) (by omega) (by omega))
      unfold encT
      rw [tab_skip _ _ _ _ _ _ (by omega), tab_skip _ _ _ _ _ _ (by omega), tab_skip _ _ _ _ _ _ (by omega), tab_skip _ _ _ _ _ _ (by omega), tab_skip _ _ _ _ _ _ (by omega), tab_hit _ _ _ _ _ _ (by omega) (by omega)]
      rfl
  have hw : wantZ (b.toNat : Int) = (2 : Nat) + 2 := by unfold wantZ; rw [if_neg (by omega), if_neg (by omega), if_neg (by omega), if_pos (by omega)]; rfl
  by_cases a1 : b.toNat = 240
  · refine go 144 191 2 ?_ hw (fun x => sec_more _ x 144 191 (by rw [a1]; rfl) (by omega) (by omega))
    unfold encT
    rw [tab_skip _ _ _ _ _ _ (by omega), tab_skip _ _ _ _ _ _ (by omega), tab_skip _ _ _ _ _ _ (by omega), tab_skip _ _ _ _ _ _ (by omega), tab_skip _ _ _ _ _ _ (by omega), tab_skip _ _ _ _ _ _ (by omega), tab_hit _ _ _ _ _ _ (by omega) (by omega)]
    rfl
  by_cases a2 : b.toNat ≤ 243
  · refine go 128 191 2 ?_ hw (fun x => hoth x (by omega) (by omega) (by omega) (by omega))
    unfold encT
    rw [tab_skip _ _ _ _ _ _ (by omega), tab_skip _ _ _ _ _ _ (by omega), tab_skip _ _ _ _ _ _ (by omega), tab_skip _ _ _ _ _ _ (by omega), tab_skip _ _ _ _ _ _ (by omega), tab_skip _ _ _ _ _ _ (by omega), tab_skip _ _ _ _ _ _ (by omega), tab_hit _ _ _ _ _ _ (by omega) (by omega)]
    rfl
  · refine go 128 143 2 ?_ hw (fun x => sec_more _ x 128 143 (by rw [show b.toNat = 244 by omega]; rfl) (by omega) (by omega))
    unfold encT
    rw [tab_skip _ _ _ _ _ _ (by omega), tab_skip _ _ _ _ _ _ (by omega), tab_skip _ _ _ _ _ _ (by omega), tab_skip _ _ _ _ _ _ (by omega), tab_skip _ _ _ _ _ _ (by omega), tab_skip _ _ _ _ _ _ (by omega), tab_skip _ _ _ _ _ _ (by omega), tab_skip _ _ _ _ _ _ (by omega), tab_hit _ _ _ _ _ _ (by omega) (by omega)]
    rfl
end Go.Proofs.YtnfccckodgknjaaGreatDoor

namespace Go.Proofs.YtnfccckodgknjaaGreatDoor
open Go.RowKit
set_option maxHeartbeats 1000000
set_option maxRecDepth 100000

theorem rWhole (s : ByteArray) (h0 : 0 < s.size) (hs : s.size ≤ maxLen) (hw : wantZ ((s[0]'h0).toNat : Int) = (s.size : Int)) (w : World) :
    Calls Tryz.prog 157 #[.string s] w fun e w' => e = .returned (.bool (contB ((s[0]'h0).toNat : Int) (s.data.toList.drop 1) 1)) ∧ Below w.heap.size w w' := by
  have HB := Lib.hid (rBegins s h0 hs (by omega))
  unfold maxLen at hs
  have hI : (0 : Int) < (s.size : Int) := by omega
  have hq : (wantZ ((s[0]'h0).toNat : Int) == (s.size : Int)) = true := by rw [hw]; simp
  clear hw
  generalize contB ((s[0]'h0).toNat : Int) (s.data.toList.drop 1) 1 = v at HB ⊢
  cases v
  all_goals
    go_enter Tryz.func157, Tryz.ntmps157
    go_wp2_with fail
    refine (HB.out _).mono ?_
    rintro e w1 ⟨rfl, hb1⟩
    go_wp2_with (go_at_call 204; refine (rWant _ _).mono ?_; rintro e w' ⟨rfl, rfl⟩)
    go_ret
    exact ⟨rfl, by assumption⟩

theorem wantZ_bd (b : Int) : 0 ≤ wantZ b ∧ wantZ b ≤ 4 := by
  unfold wantZ
  (repeat' split) <;> omega
def okV (l : List UInt8) : Bool := (piecesL l).all fun q => q.2
theorem okV_cons (b : UInt8) (t : List UInt8) : okV (b :: t) = ((measTab encT b t).2 && okV ((b :: t).drop (measTab encT b t).1)) := by
  unfold okV
  rw [piecesL_cons, List.all_cons]
theorem okV_bad (b : UInt8) (t : List UInt8) (h : (wantZ (b.toNat : Int) = 0 ∨ 1 + (t.length : Int) < wantZ (b.toNat : Int)) ∨ contB (b.toNat : Int) (t.take ((wantZ (b.toNat : Int)).toNat - 1)) 1 = false) : okV (b :: t) = false := by
  rw [okV_cons, (first_whole b t).1]
  rcases h with (h | h) | h
  · simp [h]
  · have : decide (wantZ (b.toNat : Int) ≤ 1 + (t.length : Int)) = false := by simp; omega
    simp [this]
  · simp [h]
theorem okV_good (b : UInt8) (t : List UInt8) (n : Nat) (hn : wantZ (b.toNat : Int) = (n : Int)) (h0 : ¬ n = 0) (h1 : n ≤ 1 + t.length) (hc : contB (b.toNat : Int) (t.take (n - 1)) 1 = true) : okV (b :: t) = okV ((b :: t).drop n) := by
  have h := first_whole b t
  have h2 : (measTab encT b t).2 = true := by
    rw [h.1, hn, Int.toNat_natCast, hc]
    simp
    omega
  have h3 := h.2 h2
  rw [hn] at h3
  have h4 : (measTab encT b t).1 = n := by omega
  rw [okV_cons, h2, h4, Bool.true_and]

end Go.Proofs.YtnfccckodgknjaaGreatDoor

namespace Go.Proofs.YtnfccckodgknjaaGreatDoor
open Go.RowKit
set_option maxHeartbeats 2000000
set_option maxRecDepth 100000

/-! ### Rvl -/

/-- The three kinds of first bytes. -/
theorem kinds (b : UInt8) (t : List UInt8) : (measTab encT b t = (1, true) ∧ wantZ (b.toNat : Int) = 1) ∨ (measTab encT b t = (1, false) ∧ wantZ (b.toNat : Int) = 0) ∨
    ∃ (lo hi : Int) (k : Nat), measTab encT b t = measRest ((lo, hi) :: List.replicate k (128, 191)) t 1 ∧ wantZ (b.toNat : Int) = k + 2 ∧ ∀ x, (secB (b.toNat : Int) x && moreB x) = inB lo hi x := by
  have hl := b.toNat_lt
  have one : measTab encT b t = (1, true) → wantZ (b.toNat : Int) = 1 → (measTab encT b t = (1, true) ∧ wantZ (b.toNat : Int) = 1) ∨ (measTab encT b t = (1, false) ∧ wantZ (b.toNat : Int) = 0) ∨
    ∃ (lo hi : Int) (k : Nat), measTab encT b t = measRest ((lo, hi) :: List.replicate k (128, 191)) t 1 ∧ wantZ (b.toNat : Int) = k + 2 ∧ ∀ x, (secB (b.toNat : Int) x && moreB x) = inB lo hi x := fun h1 h2 => .inl ⟨h1, h2⟩
  have none : measTab encT b t = (1, false) → wantZ (b.toNat : Int) = 0 → (measTab encT b t = (1, true) ∧ wantZ (b.toNat : Int) = 1) ∨ (measTab encT b t = (1, false) ∧ wantZ (b.toNat : Int) = 0) ∨
    ∃ (lo hi : Int) (k : Nat), measTab encT b t = measRest ((lo, hi) :: List.replicate k (128, 191)) t 1 ∧ wantZ (b.toNat : Int) = k + 2 ∧ ∀ x, (secB (b.toNat : Int) x && moreB x) = inB lo hi x := fun h1 h2 => .inr (.inl ⟨h1, h2⟩)
  have go : ∀ (lo hi : Int) (k : Nat), measTab encT b t = measRest ((lo, hi) :: List.replicate k (128, 191)) t 1 → wantZ (b.toNat : Int) = k + 2 → (∀ x, (secB (b.toNat : Int) x && moreB x) = inB lo hi x) → (measTab encT b t = (1, true) ∧ wantZ (b.toNat : Int) = 1) ∨ (measTab encT b t = (1, false) ∧ wantZ (b.toNat : Int) = 0) ∨
    ∃ (lo hi : Int) (k : Nat), measTab encT b t = measRest ((lo, hi) :: List.replicate k (128, 191)) t 1 ∧ wantZ (b.toNat : Int) = k + 2 ∧ ∀ x, (secB (b.toNat : Int) x && moreB x) = inB lo hi x := fun lo hi k h1 h2 h3 => .inr (.inr ⟨lo, hi, k, h1, h2, h3⟩)
  generalize hG : ((measTab encT b t = (1, true) ∧ wantZ (b.toNat : Int) = 1) ∨ (measTab encT b t = (1, false) ∧ wantZ (b.toNat : Int) = 0) ∨
    ∃ (lo hi : Int) (k : Nat), measTab encT b t = measRest ((lo, hi) :: List.replicate k (128, 191)) t 1 ∧ wantZ (b.toNat : Int) = k + 2 ∧ ∀ x, (secB (b.toNat : Int) x && moreB x) = inB lo hi x) = G at one go none ⊢
  by_cases g1 : b.toNat < 128
  · refine one ?_ (by unfold wantZ; rw [if_pos (by omega)])
    unfold encT
    rw [tab_hit _ _ _ _ _ _ (by omega) (by omega)]
    cases t <;> rfl
  by_cases g2 : b.toNat < 194 ∨ 245 ≤ b.toNat
  · refine none ?_ (by unfold wantZ; rw [if_neg (by omega), if_neg (by omega), if_neg (by omega), if_neg (by omega)])
    unfold encT
    rw [tab_skip _ _ _ _ _ _ (by omega), tab_skip _ _ _ _ _ _ (by omega), tab_skip _ _ _ _ _ _ (by omega), tab_skip _ _ _ _ _ _ (by omega), tab_skip _ _ _ _ _ _ (by omega), tab_skip _ _ _ _ _ _ (by omega), tab_skip _ _ _ _ _ _ (by omega), tab_skip _ _ _ _ _ _ (by omega), tab_skip _ _ _ _ _ _ (by omega)]
    rfl
  have hoth : ∀ x, ¬ b.toNat = 224 → ¬ b.toNat = 237 → ¬ b.toNat = 240 → ¬ b.toNat = 244 → (secB (b.toNat : Int) x && moreB x) = inB 128 191 x := by
    intro x a1 a2 a3 a4
    rw [secB_oth _ _ (by omega) (by omega) (by omega) (by omega), Bool.and_self]
    rfl
  by_cases g3 : b.toNat ≤ 223
  · refine go 128 191 0 ?_ (by unfold wantZ; rw [if_neg (by omega), if_pos (by omega)]; rfl) (fun x => hoth x (by omega) (by omega) (by omega) (by omega))
    unfold encT
    rw [tab_skip _ _ _ _ _ _ (by omega), tab_hit _ _ _ _ _ _ (by omega) (by omega)]
    rfl
  by_cases g4 : b.toNat ≤ 239
  · have hw : wantZ (b.toNat : Int) = (1 : Nat) + 2 := by unfold wantZ; rw [if_neg (by omega), if_neg (by omega), if_pos (by omega)]; rfl
    by_cases a1 : b.toNat = 224
    · refine go 160 191 1 ?_ hw (fun x => sec_more _ x 160 191 (by rw [a1]; rfl) (by omega) (by omega))
      unfold encT
      rw [tab_skip _ _ _ _ _ _ (by omega), tab_skip _ _ _ _ _ _ (by omega), tab_hit _ _ _ _ _ _ (by omega) (by omega)]
      rfl
    by_cases a2 : b.toNat ≤ 236
    · refine go 128 191 1 ?_ hw (fun x => hoth x (by omega) (by omega) (by omega) (by omega))
      unfold encT
      rw [tab_skip _ _ _ _ _ _ (by omega), tab_skip _ _ _ _ _ _ (by omega), tab_skip _ _ _ _ _ _ (by omega), tab_hit _ _ _ _ _ _ (by omega) (by omega)]
      rfl
    by_cases a3 : b.toNat = 237
    · refine go 128 159 1 ?_ hw (fun x => sec_more _ x 128 159 (by rw [a3]; rfl) (by omega) (by omega))
      unfold encT
      rw [tab_skip _ _ _ _ _ _ (by omega), tab_skip _ _ _ _ _ _ (by omega), tab_skip _ _ _ _ _ _ (by omega), tab_skip _ _ _ _ _ _ (by omega), tab_hit _ _ _ _ _ _ (by omega) (by omega)]
      rfl
    · refine go 128 191 1 ?_ hw (fun x => hoth x (by omega) (by omega) (by omega) (by omega))
      unfold encT
      rw [tab_skip _ _ _ _ _ _ (by omega), tab_skip _ _ _ _ _ _ (by omega), tab_skip _ _ _ _ _ _ (by omega), tab_skip _ _ _ _ _ _ (by omega), tab_skip _ _ _ _ _ _ (by omega), tab_hit _ _ _ _ _ _ (by omega) (by omega)]
      rfl
  have hw : wantZ (b.toNat : Int) = (2 : Nat) + 2 := by unfold wantZ; rw [if_neg (by omega), if_neg (by omega), if_neg (by omega), if_pos (by omega)]; rfl
  by_cases a1 : b.toNat = 240
  · refine go 144 191 2 ?_ hw (fun x => sec_more _ x 144 191 (by rw [a1]; rfl) (by omega) (by omega))
    unfold encT
    rw [tab_skip _ _ _ _ _ _ (by omega), tab_skip _ _ _ _ _ _ (by omega), tab_skip _ _ _ _ _ _ (by omega), tab_skip _ _ _ _ _ _ (by omega), tab_skip _ _ _ _ _ _ (by omega), tab_skip _ _ _ _ _ _ (by omega), tab_hit _ _ _ _ _ _ (by omega) (by omega)]
    rfl
  by_cases a2 : b.toNat ≤ 243
  · refine go 128 191 2 ?_ hw (fun x => hoth x (by omega) (by omega) (by omega) (by omega))
    unfold encT
    rw [tab_skip _ _ _ _ _ _ (by omega), tab_skip _ _ _ _ _ _ (by omega), tab_skip _ _ _ _ _ _ (by omega), tab_skip _ _ _ _ _ _ (by omega), tab_skip _ _ _ _ _ _ (by omega), tab_skip _ _ _ _ _ _ (by omega), tab_skip _ _ _ _ _ _ (by omega), tab_hit _ _ _ _ _ _ (by omega) (by omega)]
    rfl
  · refine go 128 143 2 ?_ hw (fun x => sec_more _ x 128 143 (by rw [show b.toNat = 244 by omega]; rfl) (by omega) (by omega))
    unfold encT
    rw [tab_skip _ _ _ _ _ _ (by omega), tab_skip _ _ _ _ _ _ (by omega), tab_skip _ _ _ _ _ _ (by omega), tab_skip _ _ _ _ _ _ (by omega), tab_skip _ _ _ _ _ _ (by omega), tab_skip _ _ _ _ _ _ (by omega), tab_skip _ _ _ _ _ _ (by omega), tab_skip _ _ _ _ _ _ (by omega), tab_hit _ _ _ _ _ _ (by omega) (by omega)]
    rfl

/-- How far the bytes go on. -/
theorem row_len (a : Int) (lo hi : Int) (hs : ∀ x, (secB a x && moreB x) = inB lo hi x) (k : Nat) (t : List UInt8) (j : Nat) (hj : 1 ≤ j) :
    (j + 1 ≤ (measRest ((lo, hi) :: List.replicate k (128, 191)) t 1).1) ↔ (j ≤ k + 1 ∧ j ≤ t.length ∧ contB a (t.take j) 1 = true) := by
  have tail : ∀ (k : Nat) (t : List UInt8) (n i j : Nat), 1 < i → ((n + j ≤ (measRest (List.replicate k (128, 191)) t n).1) ↔ (j ≤ k ∧ j ≤ t.length ∧ contB a (t.take j) i = true)) := by
    intro k
    induction k with
    | zero =>
      intro t n i j _
      have e : measRest (List.replicate 0 (128, 191)) t n = (n, true) := by cases t <;> rfl
      rw [e]
      constructor
      · intro h
        have : j = 0 := by simp at h; omega
        subst this
        simp [contB]
      · intro h; simp; omega
    | succ k ih =>
      intro t n i j hi
      cases j with
      | zero =>
        have := measRest_pos (List.replicate (k + 1) (128, 191)) t n
        simp [contB]
        omega
      | succ j =>
        cases t with
        | nil => simp [measRest, List.replicate_succ]
        | cons x t =>
          have h1 := ih t (n + 1) (i + 1) j (by omega)
          rw [List.replicate_succ, mr_cons, List.take_succ_cons, cb_more _ _ _ _ hi, more_in]
          cases hx : inB 128 191 (x.toNat : Int) with
          | true =>
            rw [if_pos rfl, show n + (j + 1) = n + 1 + j by omega, h1, Bool.true_and, List.length_cons]
            constructor
            · intro h; exact ⟨by omega, by omega, h.2.2⟩
            · intro h; exact ⟨by omega, by omega, h.2.2⟩
          | false => simp
  obtain ⟨j, rfl⟩ : ∃ q, j = q + 1 := ⟨j - 1, by omega⟩
  cases t with
  | nil => simp [measRest]
  | cons x t =>
    have h1 := tail k t 2 2 j (by omega)
    rw [mr_cons, List.take_succ_cons, cb_one, hs]
    cases hx : inB lo hi (x.toNat : Int) with
    | true =>
      rw [if_pos rfl, show j + 1 + 1 = 2 + j by omega, h1, Bool.true_and, List.length_cons]
      constructor
      · intro h; exact ⟨by omega, by omega, h.2.2⟩
      · intro h; exact ⟨by omega, by omega, h.2.2⟩
    | false => simp

/-- The first k bytes are an encoding or a partial one just if the first piece is as long. -/
theorem piece_len (b : UInt8) (t : List UInt8) (j : Nat) (hj : 1 ≤ j) : (j + 1 ≤ (measTab encT b t).1) ↔ ((j : Int) + 1 ≤ wantZ (b.toNat : Int) ∧ j ≤ t.length ∧ contB (b.toNat : Int) (t.take j) 1 = true) := by
  rcases kinds b t with ⟨h1, h2⟩ | ⟨h1, h2⟩ | ⟨lo, hi, k, h1, h2, h3⟩
  · rw [h1, h2]; simp; omega
  · rw [h1, h2]; simp; omega
  · rw [h1, h2, row_len (b.toNat : Int) lo hi h3 k t j hj]
    constructor
    · intro h; exact ⟨by omega, h.2⟩
    · intro h; exact ⟨by omega, h.2⟩

/-! ### Rpi -/

theorem rBeginsAny (s : ByteArray) (h0 : 0 < s.size) (hs : s.size ≤ maxLen) (w : World) :
    Calls Tryz.prog 203 #[.string s] w fun e w' => e = .returned (.bool (decide ((s.size : Int) ≤ wantZ ((s[0]'h0).toNat : Int)) && contB ((s[0]'h0).toNat : Int) (s.data.toList.drop 1) 1)) ∧ Below w.heap.size w w' := by
  by_cases hw : wantZ ((s[0]'h0).toNat : Int) < (s.size : Int)
  · have hv : (decide ((s.size : Int) ≤ wantZ ((s[0]'h0).toNat : Int)) && contB ((s[0]'h0).toNat : Int) (s.data.toList.drop 1) 1) = false := by
      rw [decide_eq_false (by omega)]; rfl
    rw [hv]
    have hz : ((s.size : Int) == 0) = false := by rw [beq_eq_false_iff_ne]; omega
    have hI : (0 : Int) < (s.size : Int) := by omega
    clear hv
    go_enter Tryz.func203, Tryz.ntmps203
    go_wp2_with (go_at_call 204; refine (rWant _ _).mono ?_; rintro e w' ⟨rfl, rfl⟩)
    go_ret
    exact ⟨rfl, Below.refl _ _⟩
  · have hv : (decide ((s.size : Int) ≤ wantZ ((s[0]'h0).toNat : Int)) && contB ((s[0]'h0).toNat : Int) (s.data.toList.drop 1) 1) = contB ((s[0]'h0).toNat : Int) (s.data.toList.drop 1) 1 := by
      rw [decide_eq_true (by omega)]; rfl
    rw [hv]
    exact rBegins s h0 hs hw w

theorem begins_at (s : ByteArray) (h0 : 0 < s.size) (hs : s.size ≤ 400000) (k : Nat) (hk : 2 ≤ k) (hks : k ≤ s.size) (w : World) :
    Calls Tryz.prog 203 #[.string (s.extract 0 k)] w fun e w' => e = .returned (.bool (decide (k ≤ (measTab encT (s[0]'h0) (s.data.toList.drop 1)).1))) ∧ Below w.heap.size w w' := by
  have xs : (s.extract 0 k).size = k := by rw [ByteArray.size_extract]; omega
  have x0 : 0 < (s.extract 0 k).size := by omega
  have e1 := drop_byte s 0 h0
  rw [List.drop_zero, Nat.zero_add] at e1
  have e2 : (s.extract 0 k).data.toList = s[0]'h0 :: (s.data.toList.drop 1).take (k - 1) := by
    rw [Lib.extract_data, List.drop_zero, Nat.sub_zero]
    conv => lhs; rw [e1]
    obtain ⟨j, rfl⟩ : ∃ j, k = j + 1 := ⟨k - 1, by omega⟩
    rfl
  have e3 := drop_byte (s.extract 0 k) 0 x0
  rw [List.drop_zero, Nat.zero_add, e2] at e3
  injection e3 with e4 e5
  have h := rBeginsAny (s.extract 0 k) x0 (by unfold maxLen; omega) w
  rw [← e4, e2, xs, List.drop_succ_cons, List.drop_zero] at h
  have hp := piece_len (s[0]'h0) (s.data.toList.drop 1) (k - 1) (by omega)
  have hl : (s.data.toList.drop 1).length + 1 = s.size := by rw [List.length_drop, size_list]; omega
  have hv : (decide ((k : Int) ≤ wantZ ((s[0]'h0).toNat : Int)) && contB ((s[0]'h0).toNat : Int) ((s.data.toList.drop 1).take (k - 1)) 1) = decide (k ≤ (measTab encT (s[0]'h0) (s.data.toList.drop 1)).1) := by
    rw [Bool.eq_iff_iff, Bool.and_eq_true, decide_eq_true_eq, decide_eq_true_eq]
    rw [show k - 1 + 1 = k by omega] at hp
    rw [hp]
    constructor
    · intro h; exact ⟨by omega, by omega, h.2⟩
    · intro h; exact ⟨by omega, h.2.2⟩
  rw [hv] at h
  exact h

theorem rPiece (s : ByteArray) (h0 : 0 < s.size) (hs : s.size ≤ 400000) (w : World) :
    Calls Tryz.prog 156 #[.string s] w fun e w' => e = .returned (.int .i64 ((measTab encT (s[0]'h0) (s.data.toList.drop 1)).1 : Nat)) ∧ Below w.heap.size w w' := by
  have HB := Lib.hid (begins_at s h0 hs)
  have hp := measTab_pos encT (s[0]'h0) (s.data.toList.drop 1)
  have h4 := measEnc_le (s[0]'h0) (s.data.toList.drop 1)
  have hl : (s.data.toList.drop 1).length + 1 = s.size := by rw [List.length_drop, size_list]; omega
  generalize (measTab encT (s[0]'h0) (s.data.toList.drop 1)).1 = L at HB hp h4 ⊢
  obtain ⟨p1, p2⟩ := hp
  have p3 : L ≤ s.size := by omega
  clear p2 hl
  go_enter Tryz.func156, Tryz.ntmps156
  go_wp2_with fail
  go_loopw [3, 4] (fun n i wr => ∃ k q : Nat, n = .int .i64 q ∧ i = .int .i64 k ∧ 2 ≤ k ∧ k ≤ 5 ∧ q ≤ 4 ∧ q = min (k - 1) L ∧ Below w.heap.size w wr) (fun _ i _ => 6 - (intOf i).toNat)
  case atStart => exact ⟨2, 1, rfl, rfl, by omega, by omega, by omega, by omega, Below.refl _ _⟩
  case round =>
    obtain ⟨k, q, rfl, rfl, hk2, hk5, hq4, hq, hB⟩ := hrel
    have HQ := Lib.hid hq
    clear hq
    by_cases hk4 : k ≤ 4
    · have i1 : (k : Int) ≤ 4 := by omega
      have i2 : (2 : Int) ≤ (k : Int) := by omega
      by_cases hks : k ≤ s.size
      · have i3 : (k : Int) ≤ (s.size : Int) := by omega
        have HC := Lib.hid (HB.out k hk2 hks)
        cases hd : decide (k ≤ L) with
        | true =>
          rw [hd] at HC
          have HN : Hid (k = min (k + 1 - 1) L) := Lib.hid (by have := of_decide_eq_true hd; omega)
          clear hd hks hk4
          go_wp2_with fail
          refine (HC.out _).mono ?_
          rintro e w1 ⟨rfl, hb1⟩
          have hb1 := below_next hB hb1
          go_wp2_with fail
          go_roundw
          case rel => exact ⟨k + 1, k, rfl, by go_num, by omega, by omega, by omega, HN.out, hb1⟩
          case measure => simp [intOf]; omega
        | false =>
          rw [hd] at HC
          have HN : Hid (q = min (k + 1 - 1) L) := Lib.hid (by have := of_decide_eq_false hd; have := HQ.out; omega)
          clear hd hks hk4
          go_wp2_with fail
          refine (HC.out _).mono ?_
          rintro e w1 ⟨rfl, hb1⟩
          have hb1 := below_next hB hb1
          go_wp2_with fail
          go_roundw
          case rel => exact ⟨k + 1, q, rfl, by go_num, by omega, by omega, by omega, HN.out, hb1⟩
          case measure => simp [intOf]; omega
      · have i3 : (s.size : Int) < (k : Int) := by omega
        have HF : Hid (q = L) := Lib.hid (by have := HQ.out; omega)
        clear hks hk4
        go_wp2_with fail
        go_ret
        exact ⟨ret_int (by rw [HF.out]), hB⟩
    · have i1 : (4 : Int) < (k : Int) := by omega
      have HF : Hid (q = L) := Lib.hid (by have := HQ.out; omega)
      clear hk4
      go_wp2_with fail
      go_ret
      exact ⟨ret_int (by rw [HF.out]), hB⟩

/-! ### Rsc -/

theorem rWholeAny (s : ByteArray) (h0 : 0 < s.size) (hs : s.size ≤ maxLen) (w : World) :
    Calls Tryz.prog 157 #[.string s] w fun e w' => e = .returned (.bool ((decide ((s.size : Int) ≤ wantZ ((s[0]'h0).toNat : Int)) && contB ((s[0]'h0).toNat : Int) (s.data.toList.drop 1) 1) && (wantZ ((s[0]'h0).toNat : Int) == (s.size : Int)))) ∧ Below w.heap.size w w' := by
  have HB := Lib.hid (rBeginsAny s h0 hs)
  unfold maxLen at hs
  have hI : (0 : Int) < (s.size : Int) := by omega
  have HW := Lib.hid (rWant ((s[0]'h0).toNat : Int))
  generalize (decide ((s.size : Int) ≤ wantZ ((s[0]'h0).toNat : Int)) && contB ((s[0]'h0).toNat : Int) (s.data.toList.drop 1) 1) = v at HB ⊢
  cases hq : (wantZ ((s[0]'h0).toNat : Int) == (s.size : Int))
  all_goals cases v
  all_goals
    go_enter Tryz.func157, Tryz.ntmps157
    go_wp2_with fail
    refine (HB.out _).mono ?_
    rintro e w1 ⟨rfl, hb1⟩
    go_wp2_with (go_at_call 204; refine (HW.out _).mono ?_; rintro e w' ⟨rfl, rfl⟩)
    go_ret
    exact ⟨rfl, by assumption⟩

def scN : Int → List UInt8 → Int
  | n, [] => n
  | n, x :: t => scN (64 * n + x.toNat - 128) t
def offL (k : Nat) : Int := if k = 2 then 192 else if k = 3 then 224 else if k = 4 then 240 else 0
theorem rScalar (s : ByteArray) (h0 : 0 < s.size) (h4 : s.size ≤ 4) (w : World) :
    Calls Tryz.prog 158 #[.string s] w fun e w' => e = .returned (.int .i32 (scN (((s[0]'h0).toNat : Int) - offL s.size) (s.data.toList.drop 1))) ∧ Below w.heap.size w w' := by
  obtain ⟨res, hres⟩ : ∃ res, res = scN (((s[0]'h0).toNat : Int) - offL s.size) (s.data.toList.drop 1) := ⟨_, rfl⟩
  rw [← hres]
  have hI : (0 : Int) < (s.size : Int) := by omega
  have b0 : (0 : Int) ≤ ((s[0]'h0).toNat : Int) := by omega
  have b1 : ((s[0]'h0).toNat : Int) ≤ 255 := by have := (s[0]'h0).toNat_lt; omega
  have hcs : (((s.size : Int) == 2) = true ∧ offL s.size = 192) ∨ (((s.size : Int) == 2) = false ∧ ((s.size : Int) == 3) = true ∧ offL s.size = 224) ∨ (((s.size : Int) == 2) = false ∧ ((s.size : Int) == 3) = false ∧ ((s.size : Int) == 4) = true ∧ offL s.size = 240) ∨ (((s.size : Int) == 2) = false ∧ ((s.size : Int) == 3) = false ∧ ((s.size : Int) == 4) = false ∧ offL s.size = 0) := by
    have : s.size = 1 ∨ s.size = 2 ∨ s.size = 3 ∨ s.size = 4 := by omega
    rcases this with h | h | h | h <;> rw [h] <;> decide
  rcases hcs with ⟨q1, ho⟩ | ⟨q1, q2, ho⟩ | ⟨q1, q2, q3, ho⟩ | ⟨q1, q2, q3, ho⟩
  all_goals
    rw [ho] at hres
    have HR := Lib.hid hres
    clear hres ho
    go_enter Tryz.func158, Tryz.ntmps158
    go_wp2_with fail
    go_loop [3, 4] (fun n i => ∃ (k : Nat) (v : Int), n = .int .i64 v ∧ i = .int .i64 k ∧ 1 ≤ k ∧ k ≤ s.size ∧ scN v (s.data.toList.drop k) = res ∧ ((k = 1 ∧ -300 ≤ v ∧ v ≤ 300) ∨ (k = 2 ∧ -20000 ≤ v ∧ v ≤ 20000) ∨ (k = 3 ∧ -1300000 ≤ v ∧ v ≤ 1300000) ∨ (k = 4 ∧ -84000000 ≤ v ∧ v ≤ 84000000))) (fun _ i => s.size - (intOf i).toNat)
    case atStart => exact ⟨1, _, by first | rfl | (simp; done), rfl, Nat.le_refl _, h0, by first | exact HR.out.symm | (have := HR.out; simp at this; exact this.symm), .inl ⟨rfl, by omega, by omega⟩⟩
    case round =>
      obtain ⟨k, v, rfl, rfl, hk1, hk, hd, hbd⟩ := hrel
      have v0 : -84000000 ≤ v := by omega
      have v1 : v ≤ 84000000 := by omega
      by_cases hlt : k < s.size
      · rw [drop_byte s k hlt, scN] at hd
        have HD := Lib.hid hd
        have hI2 : (k : Int) < (s.size : Int) := by omega
        have x0 : (0 : Int) ≤ ((s[k]'hlt).toNat : Int) := by omega
        have x1 : ((s[k]'hlt).toNat : Int) ≤ 255 := by have := (s[k]'hlt).toNat_lt; omega
        clear hd
        have HBD := Lib.hid hbd
        clear hbd
        go_wp2_with fail
        go_round
        case rel => exact ⟨k + 1, 64 * v + ((s[k]'hlt).toNat : Int) - 128, by first | rfl | go_num, by go_num, by omega, by omega, HD.out, by have := HBD.out; omega⟩
        case measure => simp [intOf]; omega
      · rw [drop_end s k (by omega), scN] at hd
        have HD := Lib.hid hd
        clear hd hbd
        go_wp2_with fail
        go_ret
        exact ⟨ret_int (by rw [← HD.out]), Below.refl _ _⟩

/-! ### Rde -/

theorem info_i32 : (Tryz.prog.info? 21).map (fun i => (i.zero, i.size, i.bytes)) = some (some (.int .i32 0), 1, 4) := by kernel_rfl
def i32c (l : List Int) : List Value := l.map fun r => Value.int .i32 r
/-- The scalar value that a piece stands for. -/
def runeOf (q : List UInt8 × Bool) : Int := if q.2 then (match q.1 with | [] => 0 | b :: t => scN ((b.toNat : Int) - offL (1 + t.length)) t) else 65533
def runesL (l : List UInt8) : List Int := (piecesL l).map runeOf

/-- What the document's functions answer at the first piece. -/
theorem piece_scalar (s : ByteArray) (h0 : 0 < s.size) (hs : s.size ≤ 400000) : ∃ L : Nat, L = (measTab encT (s[0]'h0) (s.data.toList.drop 1)).1 ∧ 1 ≤ L ∧ L ≤ 4 ∧ L ≤ s.size ∧
    (∀ w : World, Calls Tryz.prog 157 #[.string (s.extract 0 L)] w fun e w' => e = .returned (.bool (measTab encT (s[0]'h0) (s.data.toList.drop 1)).2) ∧ Below w.heap.size w w') ∧
    (∀ w : World, Calls Tryz.prog 158 #[.string (s.extract 0 L)] w fun e w' => e = .returned (.int .i32 (scN (((s[0]'h0).toNat : Int) - offL L) ((s.data.toList.drop 1).take (L - 1)))) ∧ Below w.heap.size w w') := by
  have hp := measTab_pos encT (s[0]'h0) (s.data.toList.drop 1)
  have h4 := measEnc_le (s[0]'h0) (s.data.toList.drop 1)
  have hl : (s.data.toList.drop 1).length + 1 = s.size := by rw [List.length_drop, size_list]; omega
  have hfw := first_whole (s[0]'h0) (s.data.toList.drop 1)
  have hpl := piece_len (s[0]'h0) (s.data.toList.drop 1) ((measTab encT (s[0]'h0) (s.data.toList.drop 1)).1 - 1)
  obtain ⟨b0, b4⟩ := wantZ_bd ((s[0]'h0).toNat : Int)
  generalize hm : measTab encT (s[0]'h0) (s.data.toList.drop 1) = M at hp h4 hfw hpl
  obtain ⟨L, ok⟩ := M
  dsimp only at hp h4 hfw hpl
  have xs : (s.extract 0 L).size = L := by rw [ByteArray.size_extract]; omega
  have x0 : 0 < (s.extract 0 L).size := by omega
  have e1 := drop_byte s 0 h0
  rw [List.drop_zero, Nat.zero_add] at e1
  have e2 : (s.extract 0 L).data.toList = s[0]'h0 :: (s.data.toList.drop 1).take (L - 1) := by
    rw [Lib.extract_data, List.drop_zero, Nat.sub_zero]
    conv => lhs; rw [e1]
    obtain ⟨j, rfl⟩ : ∃ j, L = j + 1 := ⟨L - 1, by omega⟩
    rfl
  have e3 := drop_byte (s.extract 0 L) 0 x0
  rw [List.drop_zero, Nat.zero_add, e2] at e3
  injection e3 with e4 e5
  refine ⟨L, rfl, hp.1, h4, by omega, ?_, ?_⟩
  · intro w
    have h := rWholeAny (s.extract 0 L) x0 (by unfold maxLen; omega) w
    rw [← e4, e2, xs, List.drop_succ_cons, List.drop_zero] at h
    have hv : (decide ((L : Int) ≤ wantZ ((s[0]'h0).toNat : Int)) && contB ((s[0]'h0).toNat : Int) ((s.data.toList.drop 1).take (L - 1)) 1 && (wantZ ((s[0]'h0).toNat : Int) == (L : Int))) = ok := by
      obtain ⟨f1, f2⟩ := hfw
      cases ok with
      | true =>
        have f3 := f2 rfl
        have f4 := f1.symm
        rw [← f3] at f4 ⊢
        rw [Int.toNat_natCast] at f4
        simp only [Bool.and_eq_true] at f4
        rw [f4.2]
        simp
      | false =>
        cases hq : (wantZ ((s[0]'h0).toNat : Int) == (L : Int)) with
        | false => rw [Bool.and_false]
        | true =>
          have hq2 : wantZ ((s[0]'h0).toNat : Int) = (L : Int) := eq_of_beq hq
          rw [hq2, Int.toNat_natCast] at f1
          have g1 : decide (¬ (L : Int) = 0) = true := by simp; omega
          have g2 : decide ((L : Int) ≤ 1 + ((s.data.toList.drop 1).length : Int)) = true := by simp only [decide_eq_true_eq]; omega
          rw [g1, g2, Bool.true_and, Bool.true_and] at f1
          rw [← f1]
          simp
    rw [hv] at h
    exact h
  · intro w
    have h := rScalar (s.extract 0 L) x0 (by omega) w
    rw [← e4, e2, xs, List.drop_succ_cons, List.drop_zero] at h
    exact h

theorem one_oneI (x : Int) : ∀ u ∈ [Value.int .i32 x], u.oneCell' = true := by
  intro u hu
  simp at hu
  subst hu
  rfl
theorem runesL_cons (b : UInt8) (t : List UInt8) : runesL (b :: t) = runeOf ((b :: t).take (measTab encT b t).1, (measTab encT b t).2) :: runesL ((b :: t).drop (measTab encT b t).1) := by
  unfold runesL
  rw [piecesL_cons]
  rfl

theorem own_below {W W' : World} {B e size n : Nat} {v : Value} {xs : List Value} (h : W.ownsRow B e size v n xs) (hb : Below W.heap.size W W') : W'.ownsRow B e size v n xs :=
  h.kept (row := none) ⟨hb.os, hb.tape, hb.output, hb.size, fun i hi _ => hb.block i hi⟩ (by
    rcases h.2 with ⟨rfl, _⟩ | ⟨g, cap, cur, rfl, _⟩
    · exact .inl rfl
    · exact .inr (by simp [Value.ownBlock]))

theorem rDecode (s : ByteArray) (hs : s.size ≤ 100000) (w : World) :
    Calls Tryz.prog 97 #[.string s] w fun e w' => ∃ v, e = .returned v ∧ w'.ownsRow w.heap.size 21 1 v (runesL s.data.toList).length (i32c (runesL s.data.toList)) ∧ Below w.heap.size w w' := by
  obtain ⟨i0, hi, hz0, hz1, hz2⟩ := info_parts info_i32
  obtain ⟨R, hR⟩ : ∃ R, R = runesL s.data.toList := ⟨_, rfl⟩
  rw [← hR]
  have HR := Lib.hid hR
  clear hR
  go_enter Tryz.func97, Tryz.ntmps97
  go_wp2_with fail
  go_loopw [3, 0] (fun v u wr => ∃ (r : ByteArray) (n : Nat) (pre : List Int), u = .string r ∧ pre.length = n ∧ pre ++ runesL r.data.toList = R ∧ n + r.size ≤ s.size ∧ wr.ownsRow w.heap.size 21 1 v n (i32c pre) ∧ Below w.heap.size w wr) (fun _ u _ => szOf u)
  case atStart => exact ⟨s, 0, [], rfl, rfl, HR.out.symm, by omega, World.ownsRow_nil _ _ _ _, Below.refl _ _⟩
  case round =>
    obtain ⟨r, n, pre, rfl, hln, hpre, hsz, hown, hB⟩ := hrel
    have HLN := Lib.hid hln
    have HP := Lib.hid hpre
    clear hln hpre
    have hsB := hB.size
    by_cases h0 : 0 < r.size
    · have hI : (0 : Int) < (r.size : Int) := by omega
      have HPI := Lib.hid (rPiece r h0 (by omega))
      obtain ⟨L, hL, l1, l4, lz, hwh, hsc⟩ := piece_scalar r h0 (by omega)
      rw [← hL] at HPI
      have e1 := drop_byte r 0 h0
      rw [List.drop_zero, Nat.zero_add] at e1
      have hlz : (L : Int) ≤ (r.size : Int) := by omega
      have hl1 : (1 : Int) ≤ (L : Int) := by omega
      have hx : (r.extract L r.size).data.toList = r.data.toList.drop L := by
        rw [Lib.extract_data]
        exact List.take_of_length_le (by rw [List.length_drop, Array.length_toList]; exact Nat.le_refl _)
      have hstep : ∀ x, x = runeOf ((r[0]'h0 :: r.data.toList.drop 1).take L, (measTab encT (r[0]'h0) (r.data.toList.drop 1)).2) → pre ++ [x] ++ runesL (r.extract L r.size).data.toList = R := by
        intro x hx2
        have h := HP.out
        rw [e1, runesL_cons, ← hL, ← hx2, ← e1, ← hx] at h
        rw [← h]
        simp
      have hval : runeOf ((r[0]'h0 :: r.data.toList.drop 1).take L, true) = scN (((r[0]'h0).toNat : Int) - offL L) ((r.data.toList.drop 1).take (L - 1)) := by
        obtain ⟨j, rfl⟩ : ∃ j, L = j + 1 := ⟨L - 1, by omega⟩
        have hlen : (r.data.toList.drop 1).length + 1 = r.size := by rw [List.length_drop, size_list]; omega
        show scN (((r[0]'h0).toNat : Int) - offL (1 + ((r.data.toList.drop 1).take j).length)) _ = _
        rw [List.length_take, Nat.min_eq_left (by omega), Nat.add_comm 1 j]
        rfl
      rw [← hval] at hsc
      have HSC := Lib.hid hsc
      have HWH := Lib.hid hwh
      have HST := Lib.hid hstep
      clear hsc hwh hstep hval e1 hx hL
      obtain ⟨x, hx2⟩ : ∃ x, x = runeOf ((r[0]'h0 :: r.data.toList.drop 1).take L, true) := ⟨_, rfl⟩
      rw [← hx2] at HSC
      have HX := Lib.hid hx2
      clear hx2
      cases hok : (measTab encT (r[0]'h0) (r.data.toList.drop 1)).2 with
      | true =>
        rw [hok] at HWH
        have HS : Hid (pre ++ [x] ++ runesL (r.extract L r.size).data.toList = R) := Lib.hid (HST.out x (by rw [hok]; exact HX.out))
        clear hok
        go_wp2_with fail
        refine (HPI.out _).mono ?_
        rintro e w1 ⟨rfl, hb1⟩
        have hb1x := below_next hB hb1
        have own1 := own_below hown hb1
        go_wp2_with fail
        refine (HWH.out _).mono ?_
        rintro e w2 ⟨rfl, hb2⟩
        have hb2x := below_next hb1x hb2
        have own2 := own_below own1 hb2
        clear hown own1 hb1 hb1x hB
        go_wp2_with fail
        refine (HSC.out _).mono ?_
        rintro e w3 ⟨rfl, hb3⟩
        have hb3x := below_next hb2x hb3
        have own3 := own_below own2 hb3
        have hs3 := hb3x.size
        clear own2 hb2 hb3 hb2x
        go_wp2_with (first | (at_builtin; refine wpList_append_own _ rfl _ _ 101 rfl w.heap.size 21 i0 (.int .i32 0) 1 4 Tryz.underlying101 hi hz0 hz1 hz2 rfl (by decide) _ _ _ rfl (own3.alloc _) ⟨_, 0, none⟩ 1 1 [.int .i32 x] rfl rfl (one_cell _ _ _) (one_oneI _) (by unfold maxLen; omega) (by omega) (by simp; omega) ?_; intro v' w9 hown' hgrow _))
        have hB' := own_grown hb3x own3 rfl hgrow
        have HO : Hid (w9.ownsRow w.heap.size 21 1 v' (n + 1) (i32c (pre ++ [x]))) := Lib.hid (by
          have := hown'
          simpa [i32c] using this)
        clear hown' hgrow
        go_wp2
        go_roundw
        case rel => exact ⟨r.extract L r.size, n + 1, pre ++ [x], rfl, by have := HLN.out; simp; omega, HS.out, by rw [ByteArray.size_extract]; omega, HO.out, hB'⟩
        case measure => simp [szOf, ByteArray.size_extract]; omega
      | false =>
        rw [hok] at HWH
        have HS : Hid (pre ++ [65533] ++ runesL (r.extract L r.size).data.toList = R) := Lib.hid (HST.out 65533 (by rw [hok]; rfl))
        clear hok
        go_wp2_with fail
        refine (HPI.out _).mono ?_
        rintro e w1 ⟨rfl, hb1⟩
        have hb1x := below_next hB hb1
        have own1 := own_below hown hb1
        go_wp2_with fail
        refine (HWH.out _).mono ?_
        rintro e w2 ⟨rfl, hb2⟩
        have hb2x := below_next hb1x hb2
        have own2 := own_below own1 hb2
        have hs2 := hb2x.size
        clear hown own1 hb1 hb2 hb1x hB
        go_wp2_with (first | (at_builtin; refine wpList_append_own _ rfl _ _ 101 rfl w.heap.size 21 i0 (.int .i32 0) 1 4 Tryz.underlying101 hi hz0 hz1 hz2 rfl (by decide) _ _ _ rfl (own2.alloc _) ⟨_, 0, none⟩ 1 1 [.int .i32 65533] rfl rfl (one_cell _ _ _) (one_oneI _) (by unfold maxLen; omega) (by omega) (by simp; omega) ?_; intro v' w9 hown' hgrow _))
        have hB' := own_grown hb2x own2 rfl hgrow
        have HO : Hid (w9.ownsRow w.heap.size 21 1 v' (n + 1) (i32c (pre ++ [65533]))) := Lib.hid (by
          have := hown'
          simpa [i32c] using this)
        clear hown' hgrow
        go_wp2
        go_roundw
        case rel => exact ⟨r.extract L r.size, n + 1, pre ++ [65533], rfl, by have := HLN.out; simp; omega, HS.out, by rw [ByteArray.size_extract]; omega, HO.out, hB'⟩
        case measure => simp [szOf, ByteArray.size_extract]; omega
    · have e0 : r.data.toList = [] := List.length_eq_zero_iff.1 (by rw [size_list]; omega)
      have hl : pre = R := by
        have := HP.out
        rw [e0] at this
        simpa [runesL, piecesL, piecesF] using this
      have hown2 := hown
      rw [← HLN.out, hl] at hown2
      have HOW := Lib.hid hown2
      clear hown2 hown hl e0
      go_wp2
      go_ret
      exact ⟨_, rfl, HOW.out, hB⟩
end Go.Proofs.YtnfccckodgknjaaGreatDoor

namespace Go.Proofs.YtnfccckodgknjaaGreatDoor
open Go.RowKit
set_option maxHeartbeats 2000000
set_option maxRecDepth 100000

/-! ### Rby -/

def encZ (n : Int) : List Int := if n < 128 then [n] else if n < 2048 then [192 + n / 64, 128 + n % 64] else if n < 65536 then [224 + n / 4096, 128 + n / 64 % 64, 128 + n % 64] else [240 + n / 262144, 128 + n / 4096 % 64, 128 + n / 64 % 64, 128 + n % 64]
def u8z (l : List Int) : List Value := l.map fun b => Value.int .u8 b

theorem rBytes (r : Int) (h0 : 0 ≤ r) (h1 : r ≤ 1114111) (w : World) :
    Calls Tryz.prog 212 #[.int .i32 r] w fun e w' => ∃ v, e = .returned v ∧ w'.ownsRow w.heap.size 5 1 v (encZ r).length (u8z (encZ r)) ∧ (∃ g, v = .slice (some ⟨g, 0, none⟩) (encZ r).length (encZ r).length) ∧ Below w.heap.size w w' := by
  have q0 : 0 ≤ r / 64 ∧ 0 ≤ r % 64 ∧ r % 64 ≤ 63 ∧ 0 ≤ r / 4096 ∧ 0 ≤ r / 262144 ∧ r / 262144 ≤ 4 ∧ 0 ≤ r / 64 % 64 ∧ r / 64 % 64 ≤ 63 ∧ 0 ≤ r / 4096 % 64 ∧ r / 4096 % 64 ≤ 63 := by omega
  obtain ⟨q1, q2, q3, q4, q5, q6, q7, q8, q9, q10⟩ := q0
  by_cases c1 : r < 128
  · have he : encZ r = [r] := by unfold encZ; rw [if_pos c1]
    rw [he]
    clear he
    go_enter Tryz.func212, Tryz.ntmps212
    go_wp2
    go_ret
    exact ⟨_, rfl, World.ownsRow_lit w _ _ (Nat.le_refl _) (by decide) rfl, ⟨_, rfl⟩, by (repeat' (first | (with_reducible exact Below.refl _ _) | (with_reducible assumption) | (with_reducible refine below_alloc ?_ _) | (with_reducible refine Below.drew ?_) | (with_reducible refine _root_.Go.below_drewN ?_ _) | (with_reducible refine Below.setCell ?_ ?_ _) | go_size | (refine below_next ?_ (by assumption))))⟩
  by_cases c2 : r < 2048
  · have he : encZ r = [192 + r / 64, 128 + r % 64] := by unfold encZ; rw [if_neg c1, if_pos c2]
    have q11 : r / 64 ≤ 31 := by omega
    rw [he]
    clear he
    go_enter Tryz.func212, Tryz.ntmps212
    go_wp2
    go_ret
    exact ⟨_, rfl, World.ownsRow_lit w _ _ (Nat.le_refl _) (by decide) rfl, ⟨_, rfl⟩, by (repeat' (first | (with_reducible exact Below.refl _ _) | (with_reducible assumption) | (with_reducible refine below_alloc ?_ _) | (with_reducible refine Below.drew ?_) | (with_reducible refine _root_.Go.below_drewN ?_ _) | (with_reducible refine Below.setCell ?_ ?_ _) | go_size | (refine below_next ?_ (by assumption))))⟩
  by_cases c3 : r < 65536
  · have he : encZ r = [224 + r / 4096, 128 + r / 64 % 64, 128 + r % 64] := by unfold encZ; rw [if_neg c1, if_neg c2, if_pos c3]
    have q11 : r / 4096 ≤ 15 := by omega
    rw [he]
    clear he
    go_enter Tryz.func212, Tryz.ntmps212
    go_wp2
    go_ret
    exact ⟨_, rfl, World.ownsRow_lit w _ _ (Nat.le_refl _) (by decide) rfl, ⟨_, rfl⟩, by (repeat' (first | (with_reducible exact Below.refl _ _) | (with_reducible assumption) | (with_reducible refine below_alloc ?_ _) | (with_reducible refine Below.drew ?_) | (with_reducible refine _root_.Go.below_drewN ?_ _) | (with_reducible refine Below.setCell ?_ ?_ _) | go_size | (refine below_next ?_ (by assumption))))⟩
  · have he : encZ r = [240 + r / 262144, 128 + r / 4096 % 64, 128 + r / 64 % 64, 128 + r % 64] := by unfold encZ; rw [if_neg c1, if_neg c2, if_neg c3]
    rw [he]
    clear he
    go_enter Tryz.func212, Tryz.ntmps212
    go_wp2
    go_ret
    exact ⟨_, rfl, World.ownsRow_lit w _ _ (Nat.le_refl _) (by decide) rfl, ⟨_, rfl⟩, by (repeat' (first | (with_reducible exact Below.refl _ _) | (with_reducible assumption) | (with_reducible refine below_alloc ?_ _) | (with_reducible refine Below.drew ?_) | (with_reducible refine _root_.Go.below_drewN ?_ _) | (with_reducible refine Below.setCell ?_ ?_ _) | go_size | (refine below_next ?_ (by assumption))))⟩

/-! ### Rtx -/

def encU (r : Int) : List UInt8 := (encZ r).map fun x => UInt8.ofNat x.toNat
theorem encZ_bd (r : Int) (h0 : 0 ≤ r) (h1 : r ≤ 1114111) : ∀ x ∈ encZ r, 0 ≤ x ∧ x ≤ 255 := by
  unfold encZ
  intro x hx
  split at hx
  · simp at hx; omega
  · split at hx
    · simp at hx; omega
    · split at hx
      · simp at hx; omega
      · simp at hx; omega
theorem encU_cells (r : Int) (h0 : 0 ≤ r) (h1 : r ≤ 1114111) : u8c (encU r) = u8z (encZ r) := by
  unfold u8c encU u8z
  rw [List.map_map]
  apply List.map_congr_left
  intro x hx
  obtain ⟨a, b⟩ := encZ_bd r h0 h1 x hx
  show Value.int .u8 ((UInt8.ofNat x.toNat).toNat : Int) = .int .u8 x
  rw [UInt8.toNat_ofNat_of_lt' (show x.toNat < 256 by omega)]
  congr 1
  omega
theorem encZ_len (r : Int) : 1 ≤ (encZ r).length ∧ (encZ r).length ≤ 4 := by
  unfold encZ
  (repeat' split) <;> simp
theorem u8z_one (l : List Int) : ∀ u ∈ u8z l, u.oneCell' = true := by
  intro u hu
  obtain ⟨x, _, rfl⟩ := List.mem_map.mp hu
  rfl

theorem rText (v : Value) (B : Nat) (l : List Int) (hl : ∀ r ∈ l, 0 ≤ r ∧ r ≤ 1114111) (hz : l.length ≤ 100000) (w : World) (hv : w.ownsRow B 21 1 v l.length (i32c l)) :
    Calls Tryz.prog 206 #[v] w fun e w' => e = .returned (.string ⟨(l.flatMap encU).toArray⟩) ∧ Below w.heap.size w w' := by
  obtain ⟨i0, hi, hz0, hz1, hz2⟩ := info_parts info_u8
  obtain ⟨R, hR⟩ : ∃ R, R = l.flatMap encU := ⟨_, rfl⟩
  rw [← hR]
  have HR := Lib.hid hR
  clear hR
  have hcases : (v = .slice none 0 0 ∧ l = []) ∨ ∃ g cap, v = .slice (some ⟨g, 0, none⟩) l.length cap ∧ g < w.heap.size ∧ l.length ≤ cap ∧ ∀ j (hj : j < l.length), w.cell? ⟨g, j, none⟩ = some (.int .i32 l[j]) := by
    rcases hv.2 with ⟨h1, h2⟩ | ⟨g, cap, cur, rfl, _, hg, hc, _⟩
    · exact .inl ⟨h1, List.length_eq_zero_iff.1 h2⟩
    · refine .inr ⟨g, cap, rfl, (Array.getElem?_eq_some_iff.1 hg).1, hc, fun j hj => ?_⟩
      rw [hv.cellAt j (by omega)]
      simp [i32c, hj]
  clear hv
  rcases hcases with ⟨rfl, rfl⟩ | ⟨g, cap, rfl, hg, hcap, hcell⟩
  · go_enter Tryz.func206, Tryz.ntmps206
    have hR : R = [] := HR.out
    subst hR
    have hbk := bytes_back (wr := w) (B := 0) (v := .slice none 0 0) (l := []) (World.ownsRow_nil w 0 5 1)
    go_wp2_with fail
    refine wp_loop_rounds 1 ?_
    rw [rounds_succ]
    go_wp2
    go_ret
    exact ⟨rfl, Below.refl _ _⟩
  · have HCELL := Lib.hid hcell
    have HL := Lib.hid hl
    clear hcell hl
    go_enter Tryz.func206, Tryz.ntmps206
    go_wp2_with fail
    go_loopw [3, 4] (fun v u wr => ∃ (k n : Nat) (pre : List UInt8), u = .int .i64 k ∧ k ≤ l.length ∧ pre.length = n ∧ pre ++ (l.drop k).flatMap encU = R ∧ n ≤ 4 * k ∧ wr.ownsRow w.heap.size 5 1 v n (u8c pre) ∧ Below w.heap.size w wr) (fun _ u _ => l.length - (intOf u).toNat)
    case atStart => exact ⟨0, 0, [], rfl, Nat.zero_le _, rfl, HR.out.symm, by omega, World.ownsRow_nil _ _ _ _, Below.refl _ _⟩
    case round =>
      obtain ⟨k, n, pre, rfl, hk, hln, hpre, hn4, hown, hB⟩ := hrel
      have HLN := Lib.hid hln
      have HP := Lib.hid hpre
      clear hln hpre
      by_cases hlt : k < l.length
      · have hI : (k : Int) < (l.length : Int) := by omega
        have hc : wr.cell? ⟨g, k, none⟩ = some (.int .i32 (l[k]'hlt)) := (hB.cell (p := ⟨g, k, none⟩) hg).trans (HCELL.out k hlt)
        obtain ⟨r0, r1⟩ := HL.out (l[k]'hlt) (List.getElem_mem hlt)
        obtain ⟨x, hx⟩ : ∃ x, x = l[k]'hlt := ⟨_, rfl⟩
        rw [← hx] at hc r0 r1
        have HS : Hid (pre ++ encU x ++ (l.drop (k + 1)).flatMap encU = R) := Lib.hid (by
          rw [← HP.out, List.drop_eq_getElem_cons hlt, List.flatMap_cons, hx]
          simp)
        clear hx
        have HBY := Lib.hid (rBytes x r0 r1 wr)
        have hel := encZ_len x
        have HEC := Lib.hid (encU_cells x r0 r1)
        have HEL : Hid ((encU x).length = (encZ x).length) := Lib.hid (by simp [encU])
        go_wp2_with fail
        refine HBY.out.mono ?_
        rintro e w1 ⟨v2, rfl, own2, ⟨g2, rfl⟩, hb1⟩
        have hb1x := below_next hB hb1
        have own1 := own_below hown hb1
        have hs1 := hb1x.size
        clear hown hb1 hB hc
        go_wp2_with (first | (at_builtin; refine wpList_append_own _ rfl _ _ 75 rfl w.heap.size 5 i0 (.int .u8 0) 1 1 Tryz.underlying75 hi hz0 hz1 hz2 rfl (by decide) _ _ _ rfl own1 ⟨g2, 0, none⟩ (encZ x).length (encZ x).length (u8z (encZ x)) rfl (by simp [u8z]) (own2.cells rfl) (u8z_one _) (by unfold maxLen; omega) (by omega) (by omega) ?_; intro v' w9 hown' hgrow _))
        have hB' : Below w.heap.size w w9 := Below.grown hb1x hgrow hb1x.size (fun j hj => (own1.lt j hj).1)
        have HO : Hid (w9.ownsRow w.heap.size 5 1 v' (n + (encZ x).length) (u8c (pre ++ encU x))) := Lib.hid (by
          have e : u8c (pre ++ encU x) = u8c pre ++ u8z (encZ x) := by rw [← HEC.out]; simp [u8c]
          rw [e]
          exact hown')
        refine ⟨⟨k + 1, n + (encZ x).length, pre ++ encU x, by go_num, by omega, by rw [List.length_append, HLN.out, HEL.out], HS.out, by omega, HO.out, hB'⟩, by simp [intOf]; omega⟩
      · have hl2 : pre = R := by
          have := HP.out
          rw [List.drop_eq_nil_of_le (by omega)] at this
          simpa using this
        have hown2 := hown
        rw [← HLN.out, hl2] at hown2
        have hbk := bytes_back hown2
        clear hown2 hl2
        go_wp2
        go_ret
        exact ⟨rfl, hB⟩

/-! ### Pen -/

theorem encU_of (r : Int) (l : List UInt8) (h : encZ r = l.map fun b => (b.toNat : Int)) : encU r = l := by
  unfold encU
  rw [h, List.map_map]
  conv => rhs; rw [← List.map_id l]
  apply List.map_congr_left
  intro b _
  show UInt8.ofNat ((b.toNat : Int)).toNat = b
  rw [Int.toNat_natCast, UInt8.ofNat_toNat]

theorem secB_bd (a x : Int) (h : (secB a x && moreB x) = true) : 128 ≤ x ∧ x ≤ 191 ∧ (a = 224 → 160 ≤ x) ∧ (a = 240 → 144 ≤ x) ∧ (a = 244 → x ≤ 143) ∧ (a = 237 → x ≤ 159) := by
  rw [Bool.and_eq_true] at h
  obtain ⟨h1, h2⟩ := h
  simp [moreB] at h2
  refine ⟨h2.1, h2.2, ?_, ?_, ?_, ?_⟩
  · rintro rfl; rw [secB_224] at h1; simp at h1; omega
  · rintro rfl; rw [secB_240] at h1; simp at h1; omega
  · rintro rfl; rw [secB_244] at h1; simp at h1; omega
  · rintro rfl; rw [secB_237] at h1; simp at h1; omega

theorem enc_piece (b : UInt8) (t : List UInt8) (L : Nat) (hw : wantZ (b.toNat : Int) = (L : Int)) (hL : ¬ L = 0) (ht : t.length + 1 = L) (hc : contB (b.toNat : Int) t 1 = true) :
    encU (scN ((b.toNat : Int) - offL L) t) = b :: t ∧ 0 ≤ scN ((b.toNat : Int) - offL L) t ∧ scN ((b.toNat : Int) - offL L) t ≤ 1114111 := by
  have hl := b.toNat_lt
  have hcases : (L = 1 ∧ (b.toNat : Int) < 128) ∨ (L = 2 ∧ 194 ≤ (b.toNat : Int) ∧ (b.toNat : Int) ≤ 223) ∨ (L = 3 ∧ 224 ≤ (b.toNat : Int) ∧ (b.toNat : Int) ≤ 239) ∨ (L = 4 ∧ 240 ≤ (b.toNat : Int) ∧ (b.toNat : Int) ≤ 244) := by
    unfold wantZ at hw
    split at hw
    · exact .inl ⟨by omega, by omega⟩
    · split at hw
      · exact .inr (.inl ⟨by omega, by omega, by omega⟩)
      · split at hw
        · exact .inr (.inr (.inl ⟨by omega, by omega, by omega⟩))
        · split at hw
          · exact .inr (.inr (.inr ⟨by omega, by omega, by omega⟩))
          · omega
  rcases hcases with ⟨rfl, h1⟩ | ⟨rfl, h1, h2⟩ | ⟨rfl, h1, h2⟩ | ⟨rfl, h1, h2⟩
  · have : t = [] := List.length_eq_zero_iff.1 (by omega)
    subst this
    have e : scN ((b.toNat : Int) - offL 1) [] = (b.toNat : Int) := by show (b.toNat : Int) - 0 = _; omega
    rw [e]
    refine ⟨encU_of _ _ ?_, by omega, by omega⟩
    unfold encZ
    rw [if_pos h1]
    rfl
  · obtain ⟨x, rfl⟩ : ∃ x, t = [x] := List.length_eq_one_iff.1 (by omega)
    rw [cb_one] at hc
    simp only [contB, Bool.and_true, Bool.and_eq_true] at hc
    obtain ⟨x0, x1, _⟩ := secB_bd _ _ (show (secB (b.toNat : Int) (x.toNat : Int) && moreB (x.toNat : Int)) = true by rw [hc.1, hc.2]; rfl)
    have e : scN ((b.toNat : Int) - offL 2) [x] = 64 * ((b.toNat : Int) - 192) + (x.toNat : Int) - 128 := rfl
    rw [e]
    obtain ⟨r, hr⟩ : ∃ r, r = 64 * ((b.toNat : Int) - 192) + (x.toNat : Int) - 128 := ⟨_, rfl⟩
    rw [← hr]
    refine ⟨encU_of _ _ ?_, by omega, by omega⟩
    unfold encZ
    rw [if_neg (by omega), if_pos (by omega)]
    have a1 : 192 + r / 64 = (b.toNat : Int) := by omega
    have a2 : 128 + r % 64 = (x.toNat : Int) := by omega
    rw [a1, a2]
    rfl
  · obtain ⟨x, y, rfl⟩ : ∃ x y, t = [x, y] := by
      rcases t with _ | ⟨x, _ | ⟨y, _ | ⟨z, t⟩⟩⟩ <;> simp at ht
      exact ⟨x, y, rfl⟩
    rw [cb_one, cb_more _ _ _ _ (by omega)] at hc
    simp only [contB, Bool.and_true, Bool.and_eq_true] at hc
    obtain ⟨⟨s1, m1⟩, hy⟩ := hc
    obtain ⟨x0, x1, x2, _⟩ := secB_bd _ _ (show (secB (b.toNat : Int) (x.toNat : Int) && moreB (x.toNat : Int)) = true by rw [s1, m1]; rfl)
    simp [moreB] at hy
    have e : scN ((b.toNat : Int) - offL 3) [x, y] = 64 * (64 * ((b.toNat : Int) - 224) + (x.toNat : Int) - 128) + (y.toNat : Int) - 128 := rfl
    rw [e]
    obtain ⟨r, hr⟩ : ∃ r, r = 64 * (64 * ((b.toNat : Int) - 224) + (x.toNat : Int) - 128) + (y.toNat : Int) - 128 := ⟨_, rfl⟩
    rw [← hr]
    have x3 : (b.toNat : Int) = 224 ∨ 225 ≤ (b.toNat : Int) := by omega
    have lo : 2048 ≤ r := by
      rcases x3 with h | h
      · have := x2 h; omega
      · omega
    refine ⟨encU_of _ _ ?_, by omega, by omega⟩
    unfold encZ
    rw [if_neg (by omega), if_neg (by omega), if_pos (by omega)]
    have a1 : 224 + r / 4096 = (b.toNat : Int) := by omega
    have a2 : 128 + r / 64 % 64 = (x.toNat : Int) := by omega
    have a3 : 128 + r % 64 = (y.toNat : Int) := by omega
    rw [a1, a2, a3]
    rfl
  · obtain ⟨x, y, z, rfl⟩ : ∃ x y z, t = [x, y, z] := by
      rcases t with _ | ⟨x, _ | ⟨y, _ | ⟨z, _ | ⟨u, t⟩⟩⟩⟩ <;> simp at ht
      exact ⟨x, y, z, rfl⟩
    rw [cb_one, cb_more _ _ _ _ (by omega), cb_more _ _ _ _ (by omega)] at hc
    simp only [contB, Bool.and_true, Bool.and_eq_true] at hc
    obtain ⟨⟨s1, m1⟩, hy, hz⟩ := hc
    obtain ⟨x0, x1, _, x2, x4, _⟩ := secB_bd _ _ (show (secB (b.toNat : Int) (x.toNat : Int) && moreB (x.toNat : Int)) = true by rw [s1, m1]; rfl)
    simp [moreB] at hy hz
    have e : scN ((b.toNat : Int) - offL 4) [x, y, z] = 64 * (64 * (64 * ((b.toNat : Int) - 240) + (x.toNat : Int) - 128) + (y.toNat : Int) - 128) + (z.toNat : Int) - 128 := rfl
    rw [e]
    obtain ⟨r, hr⟩ : ∃ r, r = 64 * (64 * (64 * ((b.toNat : Int) - 240) + (x.toNat : Int) - 128) + (y.toNat : Int) - 128) + (z.toNat : Int) - 128 := ⟨_, rfl⟩
    rw [← hr]
    have x3 : (b.toNat : Int) = 240 ∨ 241 ≤ (b.toNat : Int) := by omega
    have x5 : (b.toNat : Int) = 244 ∨ (b.toNat : Int) ≤ 243 := by omega
    have lo : 65536 ≤ r := by
      rcases x3 with h | h
      · have := x2 h; omega
      · omega
    have up : r ≤ 1114111 := by
      rcases x5 with h | h
      · have := x4 h; omega
      · omega
    refine ⟨encU_of _ _ ?_, by omega, up⟩
    unfold encZ
    rw [if_neg (by omega), if_neg (by omega), if_neg (by omega)]
    have a1 : 240 + r / 262144 = (b.toNat : Int) := by omega
    have a2 : 128 + r / 4096 % 64 = (x.toNat : Int) := by omega
    have a3 : 128 + r / 64 % 64 = (y.toNat : Int) := by omega
    have a4 : 128 + r % 64 = (z.toNat : Int) := by omega
    rw [a1, a2, a3, a4]
    rfl

theorem rune_piece (b : UInt8) (t : List UInt8) : encU (runeOf ((b :: t).take (measTab encT b t).1, (measTab encT b t).2)) = okP ((b :: t).take (measTab encT b t).1, (measTab encT b t).2) ∧
    0 ≤ runeOf ((b :: t).take (measTab encT b t).1, (measTab encT b t).2) ∧ runeOf ((b :: t).take (measTab encT b t).1, (measTab encT b t).2) ≤ 1114111 := by
  have hp := measTab_pos encT b t
  obtain ⟨f1, f2⟩ := first_whole b t
  cases hok : (measTab encT b t).2 with
  | false => exact ⟨rfl, show (0 : Int) ≤ 65533 by decide, show (65533 : Int) ≤ 1114111 by decide⟩
  | true =>
    have f3 := f2 hok
    rw [hok, ← f3] at f1
    have f4 := f1.symm
    rw [Int.toNat_natCast] at f4
    simp only [Bool.and_eq_true] at f4
    generalize (measTab encT b t).1 = L at hp f3 f4
    obtain ⟨j, rfl⟩ : ∃ j, L = j + 1 := ⟨L - 1, by omega⟩
    have hlen : (t.take j).length + 1 = j + 1 := by rw [List.length_take]; omega
    have h := enc_piece b (t.take j) (j + 1) f3.symm (by omega) hlen f4.2
    have e : runeOf ((b :: t).take (j + 1), true) = scN ((b.toNat : Int) - offL (j + 1)) (t.take j) := by
      show scN ((b.toNat : Int) - offL (1 + (t.take j).length)) (t.take j) = _
      rw [Nat.add_comm 1, hlen]
    rw [e]
    exact h
theorem runes_all : ∀ (n : Nat) (l : List UInt8), l.length ≤ n → (runesL l).flatMap encU = decL l ∧ ∀ r ∈ runesL l, 0 ≤ r ∧ r ≤ 1114111
  | _, [], _ => ⟨rfl, by intro r hr; simp [runesL, piecesL, piecesF] at hr⟩
  | 0, b :: t, h => by simp at h
  | n + 1, b :: t, h => by
    have hp := measTab_pos encT b t
    obtain ⟨h1, h2, h3⟩ := rune_piece b t
    obtain ⟨i1, i2⟩ := runes_all n ((b :: t).drop (measTab encT b t).1) (by simp at h ⊢; omega)
    rw [runesL_cons]
    refine ⟨?_, ?_⟩
    · rw [List.flatMap_cons, h1, i1]
      unfold decL
      conv => rhs; rw [piecesL_cons, List.flatMap_cons]
    · intro r hr
      rw [List.mem_cons] at hr
      rcases hr with rfl | hr
      · exact ⟨h2, h3⟩
      · exact i2 r hr
end Go.Proofs.YtnfccckodgknjaaGreatDoor

namespace Go.Proofs.YtnfccckodgknjaaGreatDoor
open Go.RowKit
set_option maxRecDepth 100000

/-- The code points of an entry, as the document's reader makes them. -/
def refVal : Int → List UInt8 → List Int
  | n, [] => [n]
  | n, b :: t => if b = 44 then n :: refVal 0 t else refVal (16 * n + hexV b.toNat) t
def okVal : Int → List UInt8 → Bool
  | n, [] => decide (0 ≤ n) && decide (n ≤ 1114111)
  | n, b :: t => if b = 44 then decide (0 ≤ n) && decide (n ≤ 1114111) && okVal 0 t else hexB b.toNat && okVal (16 * n + hexV b.toNat) t
/-- What an entry of the table is like. -/
def fineEnt (e : List UInt8) : Bool := !(nameOf e).isEmpty && (nameOf e).all (fun b => alnB b.toNat || b == 59) && okVal 0 (codesOf e) && ((refVal 0 (codesOf e)).flatMap encU == valL (codesOf e)) && decide ((codesOf e).length ≤ 100) && e.any (fun b => b == 61)
theorem ent_fine_b : (parts 32 NM.data.toList).all fineEnt = true := by decide +kernel
theorem ent_fine : ∀ e ∈ ENT, fineEnt e = true := List.all_eq_true.1 ent_fine_b
theorem ent_parts5 {e : List UInt8} (he : e ∈ ENT) : (0 < (nameOf e).length) ∧ ((nameOf e).all (fun b => alnB b.toNat || b == 59) = true) ∧ (okVal 0 (codesOf e) = true) ∧ ((refVal 0 (codesOf e)).flatMap encU = valL (codesOf e)) ∧ ((codesOf e).length ≤ 100) ∧ e.any (fun b => b == 61) = true := by
  have hf := ent_fine e he
  unfold fineEnt at hf
  rw [Bool.and_eq_true, Bool.and_eq_true, Bool.and_eq_true, Bool.and_eq_true, Bool.and_eq_true, beq_iff_eq, decide_eq_true_eq] at hf
  obtain ⟨⟨⟨⟨⟨h1, h2⟩, h3⟩, h4⟩, h5⟩, h6⟩ := hf
  refine ⟨?_, h2, h3, h4, h5, h6⟩
  cases hn : nameOf e with
  | nil => rw [hn] at h1; exact absurd h1 (by decide)
  | cons b t => simp
theorem hexV_bd {b : UInt8} (h : hexB b.toNat = true) : 0 ≤ hexV b.toNat ∧ hexV b.toNat ≤ 15 := by
  have := hexV_hex (b.toNat : Int)
  rw [h, decide_eq_true_eq] at this
  refine ⟨this, ?_⟩
  unfold hexV digB
  (repeat' split) <;> simp at * <;> omega
theorem okVal_bd : ∀ (t : List UInt8) (n : Int), 0 ≤ n → okVal n t = true → n ≤ 1114111
  | [], n, _, h => by simp [okVal] at h; exact h.2
  | b :: t, n, h0, h => by
    unfold okVal at h
    by_cases hb : b = 44
    · rw [if_pos hb] at h; simp at h; exact h.1.2
    · rw [if_neg hb, Bool.and_eq_true] at h
      have hx := hexV_bd h.1
      have := okVal_bd t _ (by omega) h.2
      omega
theorem refVal_bd : ∀ (t : List UInt8) (n : Int), 0 ≤ n → okVal n t = true → ∀ r ∈ refVal n t, 0 ≤ r ∧ r ≤ 1114111
  | [], n, _, h => by simp [okVal] at h; simp [refVal]; exact h
  | b :: t, n, h0, h => by
    unfold okVal at h
    unfold refVal
    by_cases hb : b = 44
    · rw [if_pos hb] at h ⊢
      rw [Bool.and_eq_true, Bool.and_eq_true] at h
      intro r hr
      rcases List.mem_cons.1 hr with rfl | hr
      · simpa using h.1
      · exact refVal_bd t 0 (by omega) h.2 r hr
    · rw [if_neg hb] at h ⊢
      rw [Bool.and_eq_true] at h
      have hx := hexV_bd h.1
      exact refVal_bd t _ (by omega) h.2
theorem refVal_len : ∀ (t : List UInt8) (n : Int), (refVal n t).length ≤ t.length + 1
  | [], n => by simp [refVal]
  | b :: t, n => by
    unfold refVal
    split
    · have := refVal_len t 0; simp; omega
    · have := refVal_len t (16 * n + hexV b.toNat); simp; omega
end Go.Proofs.YtnfccckodgknjaaGreatDoor

namespace Go.Proofs.YtnfccckodgknjaaGreatDoor
open Go.RowKit
set_option maxRecDepth 100000

def lgStep (s : List UInt8) (a : Nat × List UInt8) (e : List UInt8) : Nat × List UInt8 := if a.1 < (nameOf e).length ∧ (nameOf e).isPrefixOf s = true then ((nameOf e).length, valL (codesOf e)) else a
def lgT (T : List (List UInt8)) (s : List UInt8) : Nat × List UInt8 := T.foldl (lgStep s) (0, [])
noncomputable def lgL (s : List UInt8) : Nat × List UInt8 := lgT ENT s

theorem lgStep_spec (s : List UInt8) : ∀ (T : List (List UInt8)) (a : Nat × List UInt8),
    (T.foldl (lgStep s) a = a ∧ ∀ e ∈ T, nameOf e <+: s → (nameOf e).length ≤ a.1) ∨
    ∃ e ∈ T, nameOf e <+: s ∧ T.foldl (lgStep s) a = ((nameOf e).length, valL (codesOf e)) ∧ a.1 < (nameOf e).length ∧ ∀ e' ∈ T, nameOf e' <+: s → (nameOf e').length ≤ (nameOf e).length
  | [], a => .inl ⟨rfl, by simp⟩
  | e :: T, a => by
    rw [List.foldl_cons]
    by_cases h : a.1 < (nameOf e).length ∧ (nameOf e).isPrefixOf s = true
    · have hs : lgStep s a e = ((nameOf e).length, valL (codesOf e)) := if_pos h
      have hp : nameOf e <+: s := List.isPrefixOf_iff_prefix.1 h.2
      rw [hs]
      rcases lgStep_spec s T ((nameOf e).length, valL (codesOf e)) with ⟨h1, h2⟩ | ⟨e1, he1, h1, h2, h3, h4⟩
      · refine .inr ⟨e, by simp, hp, h1, h.1, ?_⟩
        intro e' he' hp'
        rcases List.mem_cons.1 he' with rfl | he'
        · exact Nat.le_refl _
        · exact h2 e' he' hp'
      · refine .inr ⟨e1, by simp [he1], h1, h2, by have := h.1; simp at h3; omega, ?_⟩
        intro e' he' hp'
        rcases List.mem_cons.1 he' with rfl | he'
        · simp at h3; omega
        · exact h4 e' he' hp'
    · have hs : lgStep s a e = a := if_neg h
      have hn : nameOf e <+: s → (nameOf e).length ≤ a.1 := by
        intro hp
        rcases Nat.lt_or_ge a.1 (nameOf e).length with h' | h'
        · exact absurd ⟨h', List.isPrefixOf_iff_prefix.2 hp⟩ h
        · exact h'
      rw [hs]
      rcases lgStep_spec s T a with ⟨h1, h2⟩ | ⟨e1, he1, h1, h2, h3, h4⟩
      · refine .inl ⟨h1, ?_⟩
        intro e' he' hp'
        rcases List.mem_cons.1 he' with rfl | he'
        · exact hn hp'
        · exact h2 e' he' hp'
      · refine .inr ⟨e1, by simp [he1], h1, h2, h3, ?_⟩
        intro e' he' hp'
        rcases List.mem_cons.1 he' with rfl | he'
        · have := hn hp'; omega
        · exact h4 e' he' hp'

theorem pair_uniq {α : Type} {R : α → α → Prop} : ∀ {l : List α}, l.Pairwise R → ∀ a ∈ l, ∀ b ∈ l, a = b ∨ R a b ∨ R b a
  | [], _, a, ha, _, _ => by simp at ha
  | x :: l, h, a, ha, b, hb => by
    rw [List.pairwise_cons] at h
    rcases List.mem_cons.1 ha with e | ha'
    · rcases List.mem_cons.1 hb with e2 | hb'
      · exact .inl (e.trans e2.symm)
      · exact .inr (.inl (e ▸ h.1 b hb'))
    · rcases List.mem_cons.1 hb with e2 | hb'
      · exact .inr (.inr (e2 ▸ h.1 a ha'))
      · exact pair_uniq h.2 a ha' b hb'
theorem ent_name {a b : List UInt8} (ha : a ∈ ENT) (hb : b ∈ ENT) (h : nameOf a = nameOf b) : a = b := by
  rcases pair_uniq ent_sorted a ha b hb with e | e | e
  · exact e
  · rw [h, ltB_irrefl] at e; exact absurd e (by decide)
  · rw [h, ltB_irrefl] at e; exact absurd e (by decide)
theorem ent_ne {e : List UInt8} (he : e ∈ ENT) : 0 < (nameOf e).length := (ent_parts5 he).1

theorem lg_uniq (T : List (List UInt8)) (hu : ∀ a ∈ T, ∀ b ∈ T, nameOf a = nameOf b → a = b) (hne : ∀ a ∈ T, 0 < (nameOf a).length) {s : List UInt8} {n : Int} {v : List UInt8}
    (h : (n = 0 ∧ v = [] ∧ ∀ e ∈ T, ¬ nameOf e <+: s) ∨ ∃ e ∈ T, nameOf e <+: s ∧ n = (nameOf e).length ∧ v = valL (codesOf e) ∧ ∀ e' ∈ T, nameOf e' <+: s → (nameOf e').length ≤ (nameOf e).length) :
    n = ((lgT T s).1 : Nat) ∧ v = (lgT T s).2 := by
  unfold lgT
  rcases lgStep_spec s T (0, []) with ⟨h1, h2⟩ | ⟨e1, he1, h1, h2, h3, h4⟩
  · rw [h1]
    rcases h with ⟨g1, g2, g3⟩ | ⟨e, he, g1, g2, g3, g4⟩
    · exact ⟨g1, g2⟩
    · have h5 : (nameOf e).length ≤ 0 := h2 e he g1
      have h6 := hne e he
      omega
  · rw [h2]
    rcases h with ⟨g1, g2, g3⟩ | ⟨e, he, g1, g2, g3, g4⟩
    · exact absurd h1 (g3 e1 he1)
    · have l1 := h4 e he g1
      have l2 := g4 e1 he1 h1
      have hlen : (nameOf e).length = (nameOf e1).length := by omega
      have a1 := List.prefix_iff_eq_take.1 g1
      have a2 := List.prefix_iff_eq_take.1 h1
      rw [hlen] at a1
      have := hu e he e1 he1 (a1.trans a2.symm)
      subst this
      exact ⟨g2, g3⟩
theorem lgP_lgL {s : List UInt8} {n : Int} {V : ByteArray} (h : LgP s n V) : n = ((lgL s).1 : Nat) ∧ V.data.toList = (lgL s).2 := by
  refine lg_uniq ENT (fun a ha b hb => ent_name ha hb) (fun a ha => ent_ne ha) ?_
  rcases h with ⟨g1, g2, g3⟩ | ⟨e, he, g1, g2, g3, g4⟩
  · exact .inl ⟨g1, by rw [g2], g3⟩
  · exact .inr ⟨e, he, g1, g2, g3, g4⟩
end Go.Proofs.YtnfccckodgknjaaGreatDoor

namespace Go.Proofs.YtnfccckodgknjaaGreatDoor
open Go.RowKit
set_option maxHeartbeats 1000000
set_option maxRecDepth 100000

theorem lowU_low (b : UInt8) : lowU (lowU b) = lowU b := by
  apply UInt8.toNat_inj.mp
  have h := lowU_toNat (lowU b)
  have h2 := lowU_toNat b
  have : lowZ (lowZ (b.toNat : Int)) = lowZ b.toNat := by
    rcases up_cases (b.toNat : Int) with ⟨h1, h2, e⟩ | e
    · rw [e]; unfold lowZ upB; rw [if_neg (by simp; omega)]
    · rw [e, e]
  rw [h2] at h
  omega
theorem lowS_low (s : ByteArray) : lowS (lowS s) = lowS s := by
  unfold lowS
  simp [lowU_low]

end Go.Proofs.YtnfccckodgknjaaGreatDoor

namespace Go.Proofs.YtnfccckodgknjaaGreatDoor
set_option maxRecDepth 100000

def sNotit : List UInt8 := [110, 111, 116, 105, 116, 59]
def sLtb : List UInt8 := [108, 116, 59, 60, 47, 98, 62]
theorem two_b : (lgT (parts 32 NM.data.toList) sNotit == (3, [194, 172]) && lgT (parts 32 NM.data.toList) sLtb == (3, [60])) = true := by decide +kernel
theorem two_p : lgL sNotit = (3, [194, 172]) ∧ lgL sLtb = (3, [60]) := by
  have h := two_b
  simp only [Bool.and_eq_true, beq_iff_eq] at h
  exact h
end Go.Proofs.YtnfccckodgknjaaGreatDoor
