/-
  TextClasses: the row and its card.
-/
import Derived.Test.YtdphkjhfeobhaaaDoorFrm
import Derived.Test.YtdphkjhfeobhaaaDoorCards
import Derived.Test.YtdphkjhfeobhaaaDoorTie
import Derived.SevenTiedAt
namespace Go.Proofs.YtdphkjhfeobhaaaDoor
open Go.ChangeShapes Go.WideShapes Go.ChangeAt Go.RowKit
set_option maxRecDepth 100000

theorem classes_lifted (os : Os) (started : os.Started) (H : Type) (enc : TypeId × Value → H) :
    ReturnsInHanded {} Tryd.checked os 10 .any (fun w args => (Rows.textClassesSpec.pre enc Tryd.prog Tryd.f10 [] false w args ∧ laidMetH Tryd.prog laidU w) ∧ sizedMet enc Tryd.prog Tryd.f10 (OpenSpec.ofChange Rows.textClassesSpec) false w args)
      (Rows.textClassesSpec.post enc Tryd.prog Tryd.f10 false true false false) := by
  refine handed (C := Tryd.checked) (X := fun w _ => laidMetH Tryd.prog laidU w) own started (by kernel_rfl) Tryd.func10
    (ChangeSpec.witness_shaped (enc := enc) (C := Tryd.checked) (os := os) (X := fun w _ => laidMetH Tryd.prog laidU w) false (World.laidAll Tryd.prog os laidU) #[.int .i32 0] 8 (door_os os)
      (World.shaped_of_ZipB (by kernel_rfl) (by kernel_rfl)) (by kernel_rfl) (by kernel_rfl) (by kernel_rfl) (door_met os _)) ?_
  intro W base args ds gs before hval0 hW hsh
  have hval : ∀ (j : Nat) t v, Tryd.f10.params[j]? = some t → args[j]? = some v → Value.okWide Tryd.prog W .any base t v := hval0
  have hW' := hW
  obtain ⟨p, q, hA0, hV, rfl, _, _⟩ := hW
  have hA : DataW.TrodAll enc Tryd.prog W 0 (fun _ => true) true Tryd.f10.params.toList args.toList ds p := hA0
  rw [Tryd.params10] at hA hval
  obtain ⟨v0, d0, rfl, rfl, h0⟩ := trodAll_one hA
  obtain ⟨rfl, rfl⟩ := trodVars_none hV
  obtain ⟨r, rfl, rfl, rfl, wr⟩ := open_int Tryd.underlying21 (hval 0 21 v0 rfl rfl) h0
  clear hA0 hval0
  simp only [List.append_nil] at hW'
  obtain ⟨m, hm⟩ := cell_ml hsh
  have hr : -2147483648 ≤ r ∧ r ≤ 2147483647 := by
    have e1 : IntKind.i32.min = -2147483648 := rfl
    have e2 : IntKind.i32.max = 2147483647 := rfl
    simpa [Lit.wf, e1, e2] using wr
  refine (textClasses r hr.1 hr.2 m W hm).mono fun e W' ⟨he, hw⟩ => ?_
  subst he
  exact ⟨_, rfl, post_plain hW' (fun _ _ _ => trodAll_mk1 (shut_bool Tryd.underlying4 _)) (fun _ => trodAll_mk1 (shut_int Tryd.underlying21 wr)) (fun _ => rfl) hw (ok_one (by kernel_rfl) rfl (okWide_bool_mk Tryd.underlying4 _))⟩

theorem textClasses_holds : Rows.TextClassesSaid :=
  OpenClaim.holds_of_wide 10 Tryd.f10 rfl rfl rfl rfl rfl rfl rfl ⟨rfl, rfl, rfl, rfl, rfl⟩ rfl rfl rfl rfl rfl (by kernel_rfl) Tryd.func10 (by kernel_rfl)
    (of_decide_eq_true (by kernel_rfl)) (by unfold Func.isWrapper; first | (rw [if_pos (by decide +kernel)]; kernel_rfl) | (rw [if_neg (by decide +kernel)]; exact ⟨rfl, rfl⟩))
    (fun os started H enc _ => classes_lifted os started H enc)

theorem textClasses_card : Rows.TextClassesCardSaid :=
  Claim7.holds_tied_plain_at .later [] [.data, .pinned] true (true, "b778778a26e785bbcbd2436b9adbd53b5408dfafac537a97189da76677ab9516") false
    textClasses_holds (fun _ h => by cases h) (by kernel_rfl) (fun _ h => by cases h) textClasses_row_tie rfl ⟨rfl, rfl⟩ (by kernel_rfl) rfl
    (fun f fn hf hfn => by
      obtain rfl : f = 10 := Option.some.inj ((show Tryd.prog.funcNamed "thicket/thicketlaw01.TextClasses" = some 10 by kernel_rfl).symm.trans hf) |>.symm
      obtain rfl : fn = Tryd.f10 := (Option.some.inj (Tryd.func10.symm.trans hfn)).symm
      exact ⟨by kernel_rfl, fun j t ht => by
        rw [Tryd.params10] at ht
        have hm : t ∈ [21] := by simpa using Array.mem_of_getElem? ht
        have hall : ([21].all fun u => !Tryd.prog.wantsStandIn u) = true := by kernel_rfl
        exact (show Tryd.prog.wantsStandIn t = false by simpa using List.all_eq_true.1 hall t hm)⟩)
    (by kernel_rfl)
#print axioms textClasses_card
end Go.Proofs.YtdphkjhfeobhaaaDoor
