/-
  'TextBehind' returns true for every input and doesn't panic: the row and its card. No condition but what the statement itself names.
-/
import Derived.Test.YtheiehbfbgjgpabDoorGbh
import Derived.Test.YtheiehbfbgjgpabDoorFrz
import Derived.Test.YtheiehbfbgjgpabDoorCards
import Derived.Test.YtheiehbfbgjgpabDoorTie
import Derived.SizedLaws
import Derived.SevenTiedAt
import Derived.Carry
namespace Go.Proofs.YtheiehbfbgjgpabDoor
open Go.ChangeShapes Go.WideShapes Go.ChangeAt Go.RowKit Go.WideMaps Go.WideElems Go.ChangeMaps
set_option maxRecDepth 100000

theorem textBehind_lifted (os : Os) (started : os.Started) (H : Type) (enc : TypeId × Value → H) :
    ReturnsInHanded {} Tryd.checked os 6 .any (fun w args => (Rows.textBehindSpec.pre enc Tryd.prog Tryd.f6 [] false w args ∧ laidMetH Tryd.prog laidU w) ∧ sizedMet enc Tryd.prog Tryd.f6 (OpenSpec.ofChange Rows.textBehindSpec) false w args)
      (Rows.textBehindSpec.post enc Tryd.prog Tryd.f6 false true false false) := by
  refine handedZ (C := Tryd.checked) (X := fun w _ => laidMetH Tryd.prog laidU w) own started (by kernel_rfl) Tryd.func6
    (ChangeSpec.witness_shaped (enc := enc) (C := Tryd.checked) (os := os) (X := fun w _ => laidMetH Tryd.prog laidU w) false (World.laidAll Tryd.prog os laidU) #[.int .i64 0, .string ⟨#[]⟩] 8 (door_os os)
      (World.shaped_of_ZipB (by kernel_rfl) (by kernel_rfl)) (by kernel_rfl) (by kernel_rfl) (by kernel_rfl) (door_met os _)) ?_
  intro W base args ds gs before hval0 hW hsh hz
  have hval : ∀ (j : Nat) t v, Tryd.f6.params[j]? = some t → args[j]? = some v → Value.okWide Tryd.prog W .any base t v := hval0
  have hW' := hW
  obtain ⟨p, q, hA0, hV, rfl, _, _⟩ := hW
  have hA : DataW.TrodAll enc Tryd.prog W 0 (fun _ => true) true Tryd.f6.params.toList args.toList ds p := hA0
  rw [Tryd.params6] at hA hval
  obtain ⟨v0, v1, d0, d1, p0, p1, rfl, rfl, rfl, h0, h1⟩ := trodAll_two hA
  obtain ⟨rfl, rfl⟩ := trodVars_none hV
  obtain ⟨a0, rfl, rfl, rfl, w0⟩ := open_int Tryd.underlying3 (hval 0 3 v0 rfl rfl) h0
  obtain ⟨a1, rfl, rfl, rfl, w1⟩ := open_string Tryd.underlying9 (hval 1 9 v1 rfl rfl) h1
  clear hA0 hval0
  simp only [List.append_nil] at hW'
  obtain ⟨m, hm⟩ := cell_ml hsh
  have r1 : a1.data.toList.length ≤ reachBytes := sized_string hz (j := 1) (t := 9) (by kernel_rfl) rfl
  have r2 : a1.size ≤ 140737488355328 := by
    rw [size_list] at r1
    have := reachBytes_lt
    omega
  refine (textBehind a0 a1 r2 m W hm).mono fun e W' ⟨he, hw⟩ => ?_
  subst he
  exact ⟨_, rfl, post_plain hW' (fun _ _ _ => trodAll_mk1 (shut_bool Tryd.underlying4 _)) (fun _ => trodAll_mk2 (shut_int Tryd.underlying3 w0) (shut_string Tryd.underlying9 w1)) (fun _ => rfl) hw (ok_one (by kernel_rfl) rfl (okWide_bool_mk Tryd.underlying4 _))⟩

theorem textBehind_holds : Rows.TextBehindSaid :=
  OpenClaim.holds_of_wide 6 Tryd.f6 rfl rfl rfl rfl rfl rfl rfl ⟨rfl, rfl, rfl, rfl, rfl⟩ rfl rfl rfl rfl rfl (by kernel_rfl) Tryd.func6 (by kernel_rfl)
    (of_decide_eq_true (by kernel_rfl)) (by unfold Func.isWrapper; first | (rw [if_pos (by decide +kernel)]; kernel_rfl) | (rw [if_neg (by decide +kernel)]; exact ⟨rfl, rfl⟩))
    (fun os started H enc _ => textBehind_lifted os started H enc)

theorem textBehind_card : Rows.TextBehindCardSaid :=
  Claim7.holds_tied_plain_at .later [] [.data, .pinned] true Rows.textBehindCard.stood.harness false
    textBehind_holds (fun _ h => by cases h) (by kernel_rfl) (fun _ h => by cases h) textBehind_row_tie rfl ⟨rfl, rfl⟩ (by kernel_rfl) rfl
    (fun f fn hf hfn => by
      obtain rfl : f = 6 := Option.some.inj ((show Tryd.prog.funcNamed "thicket/thicketlaw01.TextBehind" = some 6 by kernel_rfl).symm.trans hf) |>.symm
      obtain rfl : fn = Tryd.f6 := (Option.some.inj (Tryd.func6.symm.trans hfn)).symm
      exact ⟨by kernel_rfl, fun j t ht => by
        rw [Tryd.params6] at ht
        have hm : t ∈ [3, 9] := by simpa using Array.mem_of_getElem? ht
        have hall : ([3, 9].all fun u => !Tryd.prog.wantsStandIn u) = true := by kernel_rfl
        exact (show Tryd.prog.wantsStandIn t = false by simpa using List.all_eq_true.1 hall t hm)⟩)
    (by kernel_rfl)
end Go.Proofs.YtheiehbfbgjgpabDoor
