/-
  'ScanMarkup' returns true for every input and doesn't panic: the row and its card. No condition but what the statement itself names.
-/
import Derived.Test.YtnfccckodgknjaaGreatDoorYQ
import Derived.Test.YtnfccckodgknjaaGreatDoorY22
import Derived.Test.YtnfccckodgknjaaGreatDoorCards
import Derived.Test.YtnfccckodgknjaaGreatDoorTie
import Derived.SevenTiedAt
import Derived.Carry
import Derived.Test.YtnfccckodgknjaaGreatDoorRkScanMarkup
namespace Go.Proofs.YtnfccckodgknjaaGreatDoor
open Go.ChangeShapes Go.WideShapes Go.ChangeAt Go.RowKit Go.WideMaps Go.WideElems Go.ChangeMaps
set_option maxRecDepth 100000

theorem scanMarkup_lifted (os : Os) (started : os.Started) (H : Type) (enc : TypeId × Value → H) :
    ReturnsInHanded {} Tryz.checked os 5 .any (fun w args => (Rows.scanMarkupSpec.pre enc Tryz.prog Tryz.f5 [] false w args ∧ laidMetH Tryz.prog laidC w) ∧ sizedMet enc Tryz.prog Tryz.f5 (OpenSpec.ofChange Rows.scanMarkupSpec) false w args)
      (Rows.scanMarkupSpec.post enc Tryz.prog Tryz.f5 false true false false) := by
  refine handedC own started (by kernel_rfl) Tryz.func5
    (ChangeSpec.witness_shaped (enc := enc) (C := Tryz.checked) (os := os) (X := fun w _ => laidMetH Tryz.prog laidC w) false (World.laidAll Tryz.prog os laidC) #[.string ⟨#[]⟩, .int .i64 0, .bool false] 8 (doorC_os os)
      (World.shaped_of_ZipB (by kernel_rfl) (by kernel_rfl)) (by kernel_rfl) (by kernel_rfl) (by kernel_rfl) (doorC_met os _)) ?_
  intro W base args ds gs before hval0 hW hsh hctl
  have hval : ∀ (j : Nat) t v, Tryz.f5.params[j]? = some t → args[j]? = some v → Value.okWide Tryz.prog W .any base t v := hval0
  have hW' := hW
  obtain ⟨p, q, hA0, hV, rfl, _, _⟩ := hW
  have hA : DataW.TrodAll enc Tryz.prog W 0 (fun _ => true) true Tryz.f5.params.toList args.toList ds p := hA0
  rw [Tryz.params5] at hA hval
  obtain ⟨v0, v1, v2, d0, d1, d2, p0, p1, p2, rfl, rfl, rfl, h0, h1, h2⟩ := trodAll_three hA
  obtain ⟨rfl, rfl⟩ := trodVars_none hV
  obtain ⟨a0, rfl, rfl, rfl, w0⟩ := open_string Tryz.underlying9 (hval 0 9 v0 rfl rfl) h0
  obtain ⟨a1, rfl, rfl, rfl, w1⟩ := open_int Tryz.underlying3 (hval 1 3 v1 rfl rfl) h1
  obtain ⟨a2, rfl, rfl, rfl⟩ := open_bool Tryz.underlying4 (hval 2 4 v2 rfl rfl) h2
  clear hA0 hval0
  simp only [List.append_nil] at hW'
  obtain ⟨m, hm⟩ := cell_ml hsh
  refine (lawMarkup a0 a1 a2 m W hm hctl).mono fun e W' ⟨he, hw⟩ => ?_
  subst he
  exact ⟨_, rfl, post_plain hW' (fun _ _ _ => trodAll_mk1 (shut_bool Tryz.underlying4 _)) (fun _ => trodAll_mk3 (shut_string Tryz.underlying9 w0) (shut_int Tryz.underlying3 w1) (shut_bool Tryz.underlying4 _)) (fun _ => rfl) hw (ok_one (by kernel_rfl) rfl (okWide_bool_mk Tryz.underlying4 _))⟩

theorem scanMarkup_holds : Rows.ScanMarkupSaid :=
  OpenClaim.holds_of_wide 5 Tryz.f5 rfl rfl rfl rfl rfl rfl rfl ⟨rfl, rfl, rfl, rfl, rfl⟩ rfl rfl rfl rfl rfl scanMarkup_k1 Tryz.func5 scanMarkup_k2
    scanMarkup_k3 (by unfold Func.isWrapper; first | (rw [if_pos (by decide +kernel)]; kernel_rfl) | (rw [if_neg (by decide +kernel)]; exact ⟨rfl, rfl⟩))
    (fun os started H enc _ => scanMarkup_lifted os started H enc)

theorem scanMarkup_card : Rows.ScanMarkupCardSaid :=
  Claim7.holds_tied_plain_at .later [] [.data, .data, .pinned] true Rows.scanMarkupCard.stood.harness false
    scanMarkup_holds (fun _ h => by cases h) scanMarkup_k6 (fun _ h => by cases h) scanMarkup_row_tie rfl ⟨rfl, rfl⟩ scanMarkup_k7 rfl
    (fun f fn hf hfn => by
      obtain rfl : f = 5 := Option.some.inj (scanMarkup_k9.symm.trans hf) |>.symm
      obtain rfl : fn = Tryz.f5 := (Option.some.inj (Tryz.func5.symm.trans hfn)).symm
      exact ⟨scanMarkup_k4, fun j t ht => by
        rw [Tryz.params5] at ht
        have hm : t ∈ [9, 3, 4] := by simpa using Array.mem_of_getElem? ht
        exact (show Tryz.prog.wantsStandIn t = false by simpa using List.all_eq_true.1 scanMarkup_k8 t hm)⟩)
    scanMarkup_k5
end Go.Proofs.YtnfccckodgknjaaGreatDoor
