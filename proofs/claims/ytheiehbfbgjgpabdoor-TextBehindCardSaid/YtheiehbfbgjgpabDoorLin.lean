/-
  TextInput: the walk.
-/
import Derived.Test.YtheiehbfbgjgpabDoorVld
import Derived.Test.YtheiehbfbgjgpabDoorLnl
import Derived.Test.YtheiehbfbgjgpabDoorLpi
namespace Go.Proofs.YtheiehbfbgjgpabDoor
open Go.RowKit
set_option maxHeartbeats 1000000
set_option maxRecDepth 100000

/-- Bytes that are decoded to themselves, all pieces whole. -/
def Whole1 (l : List UInt8) : Prop := ∀ q ∈ piecesL l, q.2 = true
theorem whole_dec (l : List UInt8) : Whole1 (decL l) := by
  have h := dec_app l []
  rw [List.append_nil, pieces_nil, List.append_nil] at h
  intro q hq
  rw [h] at hq
  obtain ⟨x, _, rfl⟩ := List.mem_map.mp hq
  rfl
theorem piecesF_join : ∀ (n : Nat) (l : List UInt8), l.length ≤ n → (piecesL l).flatMap (·.1) = l
  | _, [], _ => rfl
  | 0, b :: t, h => by simp at h
  | n + 1, b :: t, h => by
    have hp := measTab_pos encT b t
    rw [piecesL_cons, List.flatMap_cons, piecesF_join n _ (by simp at h ⊢; omega), List.take_append_drop]
theorem whole_same {l : List UInt8} (h : Whole1 l) : decL l = l := by
  conv => rhs; rw [← piecesF_join _ l (Nat.le_refl _)]
  unfold decL
  unfold Whole1 at h
  generalize piecesL l = ps at h
  induction ps with
  | nil => rfl
  | cons q ps ih =>
    rw [List.flatMap_cons, List.flatMap_cons, ih fun x hx => h x (by simp [hx])]
    unfold okP
    rw [if_pos (h q (by simp))]

/-- A byte below 128 is a whole piece, whatever follows. -/
theorem ascii_piece (b : UInt8) (t : List UInt8) (hb : b.toNat < 128) : piecesL (b :: t) = ([b], true) :: piecesL t := by
  have e : measTab encT b t = (1, true) := by
    show (if inB 0 127 b.toNat then measRest [] t 1 else _) = _
    rw [if_pos (by simp [inB]; omega)]
    cases t <;> rfl
  rw [piecesL_cons, e]
  rfl
/-- No piece of two or more whole bytes holds a byte below 128. -/
theorem rest_high (R : List (Int × Int)) (hR : ∀ p ∈ R, 128 ≤ p.1) : ∀ (l : List UInt8) (n n' : Nat), measRest R l n = (n', true) → ∀ x ∈ l.take (n' - n), 128 ≤ x.toNat := by
  induction R with
  | nil =>
    intro l n n' h
    have : measRest [] l n = (n, true) := by cases l <;> rfl
    rw [this] at h
    have e : n = n' := congrArg Prod.fst h
    subst e
    simp
  | cons p R ih =>
    obtain ⟨lo, hi⟩ := p
    intro l n n' h
    cases l with
    | nil => simp
    | cons b t =>
      unfold measRest at h
      split at h
      · rename_i hx
        have hn := (rest_true R t (n + 1) n' h).1
        have h2 := ih (fun p hp => hR p (by simp [hp])) t (n + 1) n' h
        have hlo := hR (lo, hi) (by simp)
        obtain ⟨k, hk⟩ : ∃ k, n' - n = k + 1 := ⟨n' - n - 1, by omega⟩
        rw [hk, List.take_succ_cons]
        intro x hx2
        rw [List.mem_cons] at hx2
        rcases hx2 with rfl | hx2
        · simp [inB] at hx
          simp at hlo
          omega
        · exact h2 x (by rw [show n' - (n + 1) = k by omega]; exact hx2)
      · simp at h
theorem tab_high (b : UInt8) (t : List UInt8) (hb : 128 ≤ b.toNat) : ∀ (T : List (Int × Int × List (Int × Int))), (∀ e ∈ T, ∀ p ∈ e.2.2, 128 ≤ p.1) → ∀ n', measTab T b t = (n', true) → ∀ x ∈ (b :: t).take n', 128 ≤ x.toNat
  | [], _, n', h => by simp [measTab] at h
  | (lo, hi, rs) :: es, hT, n', h => by
    have h1 := (tab_true b t ((lo, hi, rs) :: es) n' h).1
    obtain ⟨k, rfl⟩ : ∃ k, n' = k + 1 := ⟨n' - 1, by omega⟩
    unfold measTab at h
    split at h
    · have h2 := rest_high rs (hT (lo, hi, rs) (by simp)) t 1 (k + 1) h
      rw [Nat.add_sub_cancel] at h2
      rw [List.take_succ_cons]
      intro x hx
      rw [List.mem_cons] at hx
      rcases hx with rfl | hx
      · exact hb
      · exact h2 x hx
    · exact tab_high b t hb es (fun e he => hT e (by simp [he])) (k + 1) h

theorem nlR_pre (p : List UInt8) (hp : ∀ x ∈ p, 128 ≤ x.toNat) (r : List UInt8) : nlR (p ++ r) = p ++ nlR r := by
  induction p with
  | nil => rfl
  | cons b t ih =>
    have hb : ¬ b = 13 := fun e => by
      have := hp b (by simp)
      rw [e] at this
      simp at this
    rw [List.cons_append, nlR_b b _ hb, ih fun x hx => hp x (by simp [hx])]
    rfl

/-- Line ends of whole bytes leave whole bytes, no more of them. -/
theorem whole_nl : ∀ (n : Nat) (l : List UInt8), l.length ≤ n → Whole1 l → Whole1 (nlR l) ∧ (piecesL (nlR l)).length ≤ (piecesL l).length
  | _, [], _, h => ⟨h, Nat.le_refl _⟩
  | 0, b :: t, h, _ => by simp at h
  | n + 1, b :: t, h, hw => by
    by_cases hb : b.toNat < 128
    · have e := ascii_piece b t hb
      have hwt : Whole1 t := by
        intro q hq
        exact hw q (by rw [e]; simp [hq])
      obtain ⟨i1, i2⟩ := whole_nl n t (by simp at h; omega) hwt
      by_cases h13 : b = 13
      · subst h13
        by_cases h10 : t.head? = some 10
        · cases t with
          | nil => simp at h10
          | cons x t =>
            simp at h10
            subst h10
            rw [nlR_skip]
            refine ⟨i1, ?_⟩
            rw [e, List.length_cons]
            omega
        · rw [nlR_10 t h10]
          have e2 := ascii_piece 10 (nlR t) (by decide)
          refine ⟨?_, ?_⟩
          · intro q hq
            rw [e2, List.mem_cons] at hq
            rcases hq with rfl | hq
            · rfl
            · exact i1 q hq
          · rw [e, e2, List.length_cons, List.length_cons]
            omega
      · rw [nlR_b b t h13]
        have e2 := ascii_piece b (nlR t) hb
        refine ⟨?_, ?_⟩
        · intro q hq
          rw [e2, List.mem_cons] at hq
          rcases hq with rfl | hq
          · rfl
          · exact i1 q hq
        · rw [e, e2, List.length_cons, List.length_cons]
          omega
    · have hp := measTab_pos encT b t
      have hc : (measTab encT b t).2 = true := hw ((b :: t).take (measTab encT b t).1, (measTab encT b t).2) (by rw [piecesL_cons]; simp)
      have hhi := tab_high b t (by omega) encT (by decide) (measTab encT b t).1 (by rw [← hc])
      have hq := isP_first b t
      have hwt : Whole1 ((b :: t).drop (measTab encT b t).1) := by
        intro q hq
        exact hw q (by rw [piecesL_cons]; simp [hq])
      obtain ⟨i1, i2⟩ := whole_nl n ((b :: t).drop (measTab encT b t).1) (by simp at h ⊢; omega) hwt
      have hok := hq.ok (nlR ((b :: t).drop (measTab encT b t).1))
      unfold okP at hok
      simp only [hc, if_true] at hok
      have e3 : nlR (b :: t) = (b :: t).take (measTab encT b t).1 ++ nlR ((b :: t).drop (measTab encT b t).1) := by
        conv => lhs; rw [← List.take_append_drop (measTab encT b t).1 (b :: t)]
        exact nlR_pre _ hhi _
      have e4 : (piecesL (b :: t)).length = 1 + (piecesL ((b :: t).drop (measTab encT b t).1)).length := by rw [piecesL_cons, List.length_cons]; omega
      rw [e3, hok]
      refine ⟨?_, ?_⟩
      · intro q hq
        rw [hok, List.mem_cons] at hq
        rcases hq with rfl | hq
        · rfl
        · exact i1 q hq
      · rw [e4, List.length_cons]
        omega

theorem nlR_no13 (p r : List UInt8) (hp : ∀ x ∈ p, x ≠ 13) : nlR (p ++ r) = p ++ nlR r := by
  induction p with
  | nil => rfl
  | cons b t ih => rw [List.cons_append, nlR_b b _ (hp b (by simp)), ih fun x hx => hp x (by simp [hx])]; rfl

/-- What input is read as. -/
def inpS (s : ByteArray) : ByteArray := nlS (decS s)
theorem inp_whole (s : ByteArray) : Whole1 (inpS s).data.toList ∧ (piecesB (inpS s)).length ≤ s.size := by
  unfold inpS
  rw [piecesB_length, nlS_list, decS_decL]
  have h := whole_nl _ (decL s.data.toList) (Nat.le_refl _) (whole_dec _)
  refine ⟨h.1, ?_⟩
  have h2 := piecesB_len s
  rw [piecesB_length] at h2
  have h3 := cnt_dec s.data.toList
  omega
theorem inp_valid (s : ByteArray) : ((piecesB (inpS s)).all fun x => x.1.2) = true := by
  have h := (inp_whole s).1
  unfold piecesB
  rw [List.all_map, List.all_eq_true]
  intro q hq
  exact h q hq
theorem inp_dec (s : ByteArray) : decS (inpS s) = inpS s := by
  apply list_bytes
  rw [decS_decL]
  exact whole_same (inp_whole s).1
theorem inp_inp (s : ByteArray) : inpS (inpS s) = inpS s := by
  show nlS (decS (inpS s)) = _
  rw [inp_dec]
  exact nlS_nlS _
theorem inp_no (s : ByteArray) : allB (fun b => !(b == 13)) (inpS s) = true := nlS_no _
theorem inp_decEnd (s : ByteArray) : decS (inpS s ++ ⟨#[13, 10]⟩) = inpS s ++ ⟨#[13, 10]⟩ := by
  have h := decS_app (inpS s) ⟨#[13, 10]⟩
  rw [inp_dec] at h
  rw [h, show decS ⟨#[13, 10]⟩ = ⟨#[13, 10]⟩ from by decide +kernel]
theorem inp_end (s : ByteArray) : inpS (inpS s ++ ⟨#[13, 10]⟩) = inpS s ++ ⟨#[10]⟩ := by
  show nlS (decS (inpS s ++ ⟨#[13, 10]⟩)) = _
  rw [inp_decEnd]
  apply list_bytes
  rw [nlS_list, ByteArray.data_append, ByteArray.data_append, Array.toList_append, Array.toList_append]
  refine nlR_no13 _ _ ?_
  unfold inpS
  rw [nlS_list]
  exact nlR_no _ _ (Nat.le_refl _)
theorem inpS_size (s : ByteArray) : (inpS s).size ≤ 3 * s.size := Nat.le_trans (nlS_size _) (decS_size3 s)

theorem inputS (s : ByteArray) (m : Int) (hs : s.size ≤ 400000) (hz : (decS s).size ≤ 400000) (w : World) (hm : Ml m w) :
    Calls Tryd.prog 35 #[.string s] w fun e w' => e = .returned (.string (inpS s)) ∧ Below w.heap.size w w' := by
  have HM := Lib.hid hm
  clear hm
  have hi : inpS s = nlS (decS s) := rfl
  rw [hi]
  clear hi
  go_enter Tryd.func35, Tryd.ntmps35
  go_wp2_with fail
  refine (decode s (by omega) w).mono ?_
  rintro e w1 ⟨rfl, hb1⟩
  generalize hd : decS s = d at hz ⊢
  have HD := Lib.hid hd
  clear hd
  have HN := Lib.hid (newlinesS d m (by omega) w1 (carry HM.out hb1))
  go_wp2_with fail
  refine HN.out.mono ?_
  rintro e w2 ⟨rfl, hb2⟩
  go_wp2_with fail
  go_ret
  exact ⟨by rw [HD.out]; rfl, below_next hb1 hb2⟩

end Go.Proofs.YtheiehbfbgjgpabDoor
