/-
  'TextScalars' returns true for every input and doesn't panic: the row and its card. No condition but what the statement itself names.
-/
import Derived.Test.YtheiehbfbgjgpabDoorGsc
import Derived.Test.YtheiehbfbgjgpabDoorCards
import Derived.Test.YtheiehbfbgjgpabDoorTie
import Derived.SevenTiedAt
import Derived.Carry
namespace Go.Proofs.YtheiehbfbgjgpabDoor
open Go.ChangeShapes Go.WideShapes Go.ChangeAt Go.RowKit Go.WideMaps Go.WideElems Go.ChangeMaps
set_option maxRecDepth 100000

theorem textScalars_lifted (os : Os) (started : os.Started) (H : Type) (enc : TypeId × Value → H) :
    ReturnsInHanded {} Tryd.checked os 3 .any (fun w args => (Rows.textScalarsSpec.pre enc Tryd.prog Tryd.f3 [] false w args ∧ laidMetH Tryd.prog laidU w) ∧ sizedMet enc Tryd.prog Tryd.f3 (OpenSpec.ofChange Rows.textScalarsSpec) false w args)
      (Rows.textScalarsSpec.post enc Tryd.prog Tryd.f3 false true false false) := by
  refine handed (C := Tryd.checked) (X := fun w _ => laidMetH Tryd.prog laidU w) own started (by kernel_rfl) Tryd.func3
    (ChangeSpec.witness_shaped (enc := enc) (C := Tryd.checked) (os := os) (X := fun w _ => laidMetH Tryd.prog laidU w) false (World.laidAll Tryd.prog os laidU) #[.slice none 0 0] 8 (door_os os)
      (World.shaped_of_ZipB (by kernel_rfl) (by kernel_rfl)) (by kernel_rfl) (by kernel_rfl) (by kernel_rfl) (door_met os _)) ?_
  intro W base args ds gs before hval0 hW hsh
  have hval : ∀ (j : Nat) t v, Tryd.f3.params[j]? = some t → args[j]? = some v → Value.okWide Tryd.prog W .any base t v := hval0
  have hW' := hW
  obtain ⟨p, q, hA0, hV, rfl, _, _⟩ := hW
  have hA : DataW.TrodAll enc Tryd.prog W 0 (fun _ => true) true Tryd.f3.params.toList args.toList ds p := hA0
  rw [Tryd.params3] at hA hval
  obtain ⟨v0, d0, rfl, rfl, h0⟩ := trodAll_one hA
  obtain ⟨rfl, rfl⟩ := trodVars_none hV
  clear hA0 hval0
  simp only [List.append_nil] at hW'
  obtain ⟨m, hm⟩ := cell_ml hsh
  have hread : ∃ (ad : Option Addr) (cap : Nat) (l : List Int), v0 = .slice ad l.length cap ∧ ∀ j (h : j < l.length), ∃ g o, ad = some ⟨g, o, none⟩ ∧ W.cell? ⟨g, o + j, none⟩ = some (.int .i64 l[j]) := by
    obtain ⟨a0, len, cap, rfl⟩ := okWide_slice Tryd.underlying22 (hval 0 22 v0 rfl rfl)
    obtain ⟨fuel, hf⟩ := h0
    rcases open_ints Tryd.underlying22 Tryd.underlying3 (by kernel_rfl) hf with ⟨hcs, _⟩ | ⟨a, len', cap', zs, hcs, _, hl, hmx, hz, _, hcell, _⟩
    · simp [Value.cells] at hcs
      obtain ⟨rfl, rfl, rfl⟩ := hcs
      exact ⟨none, 0, [], rfl, fun j h => absurd h (by simp)⟩
    · simp [Value.cells] at hcs
      obtain ⟨rfl, rfl, rfl⟩ := hcs
      simp at hz
      refine ⟨some a, cap, zs.take len, by rw [List.length_take, Nat.min_eq_left (by omega)], ?_⟩
      intro j hj
      rw [List.length_take] at hj
      obtain ⟨b, off, rfl, hc⟩ := ints_at hcell (by omega)
      refine ⟨b, off, rfl, ?_⟩
      rw [hc j (by omega), List.getElem_take, List.getD_eq_getElem?_getD, List.getElem?_eq_getElem (by omega)]
      rfl
  obtain ⟨ad, cap, l, rfl, hc⟩ := hread
  refine (textScalars ad cap l m W hm hc).mono fun e W' ⟨he, hw⟩ => ?_
  subst he
  have hlt : ∀ x ∈ p, x.block < W.heap.size := hW'.lt
  exact ⟨_, rfl, post_cells (pa := p) (pv := []) hW' (fun _ _ _ => trodAll_mk1 (shut_bool Tryd.underlying4 _)) (fun sp hsp => trodAll_mk1 (WideElems.Trod_stays laidOutP (by kernel_rfl) (of_decide_eq_true (by kernel_rfl)) h0 (fun x hx => hw.same (hlt x hx)) hsp)) (fun _ _ => rfl) (by simp) hw (ok_one (by kernel_rfl) rfl (okWide_bool_mk Tryd.underlying4 _))⟩

theorem textScalars_holds : Rows.TextScalarsSaid :=
  OpenClaim.holds_of_wide 3 Tryd.f3 rfl rfl rfl rfl rfl rfl rfl ⟨rfl, rfl, rfl, rfl, rfl⟩ rfl rfl rfl rfl rfl (by kernel_rfl) Tryd.func3 (by kernel_rfl)
    (of_decide_eq_true (by kernel_rfl)) (by unfold Func.isWrapper; first | (rw [if_pos (by decide +kernel)]; kernel_rfl) | (rw [if_neg (by decide +kernel)]; exact ⟨rfl, rfl⟩))
    (fun os started H enc _ => textScalars_lifted os started H enc)

theorem textScalars_card : Rows.TextScalarsCardSaid :=
  Claim7.holds_tied_plain_at .later [] [.data, .pinned] true Rows.textScalarsCard.stood.harness false
    textScalars_holds (fun _ h => by cases h) (by kernel_rfl) (fun _ h => by cases h) textScalars_row_tie rfl ⟨rfl, rfl⟩ (by kernel_rfl) rfl
    (fun f fn hf hfn => by
      obtain rfl : f = 3 := Option.some.inj ((show Tryd.prog.funcNamed "thicket/thicketlaw01.TextScalars" = some 3 by kernel_rfl).symm.trans hf) |>.symm
      obtain rfl : fn = Tryd.f3 := (Option.some.inj (Tryd.func3.symm.trans hfn)).symm
      exact ⟨by kernel_rfl, fun j t ht => by
        rw [Tryd.params3] at ht
        have hm : t ∈ [22] := by simpa using Array.mem_of_getElem? ht
        have hall : ([22].all fun u => !Tryd.prog.wantsStandIn u) = true := by kernel_rfl
        exact (show Tryd.prog.wantsStandIn t = false by simpa using List.all_eq_true.1 hall t hm)⟩)
    (by kernel_rfl)
end Go.Proofs.YtheiehbfbgjgpabDoor
