/-
  'ScanAttributesBack' returns true for every input and doesn't panic: the row and its card. No condition but what the statement itself names.
-/
import Derived.Test.YtnfccckodgknjaaGreatDoorYA
import Derived.Test.YtnfccckodgknjaaGreatDoorY22
import Derived.Test.YtnfccckodgknjaaGreatDoorCards
import Derived.Test.YtnfccckodgknjaaGreatDoorTie
import Derived.SevenTiedAt
import Derived.Carry
import Derived.Test.YtnfccckodgknjaaGreatDoorRkScanAttributesBack
namespace Go.Proofs.YtnfccckodgknjaaGreatDoor
open Go.ChangeShapes Go.WideShapes Go.ChangeAt Go.RowKit Go.WideMaps Go.WideElems Go.ChangeMaps
set_option maxRecDepth 100000

theorem scanAttributesBack_lifted (os : Os) (started : os.Started) (H : Type) (enc : TypeId × Value → H) :
    ReturnsInHanded {} Tryz.checked os 3 .any (fun w args => (Rows.scanAttributesBackSpec.pre enc Tryz.prog Tryz.f3 [] false w args ∧ laidMetH Tryz.prog laidC w) ∧ sizedMet enc Tryz.prog Tryz.f3 (OpenSpec.ofChange Rows.scanAttributesBackSpec) false w args)
      (Rows.scanAttributesBackSpec.post enc Tryz.prog Tryz.f3 false true false false) := by
  refine handedC own started (by kernel_rfl) Tryz.func3
    (ChangeSpec.witness_shaped (enc := enc) (C := Tryz.checked) (os := os) (X := fun w _ => laidMetH Tryz.prog laidC w) false (World.laidAll Tryz.prog os laidC) #[.slice none 0 0, .slice none 0 0, .bool false, .string ⟨#[]⟩] 8 (doorC_os os)
      (World.shaped_of_ZipB (by kernel_rfl) (by kernel_rfl)) (by kernel_rfl) (by kernel_rfl) (by kernel_rfl) (doorC_met os _)) ?_
  intro W base args ds gs before hval0 hW hsh hctl
  have hval : ∀ (j : Nat) t v, Tryz.f3.params[j]? = some t → args[j]? = some v → Value.okWide Tryz.prog W .any base t v := hval0
  have hW' := hW
  obtain ⟨p, q, hA0, hV, rfl, _, _⟩ := hW
  have hA : DataW.TrodAll enc Tryz.prog W 0 (fun _ => true) true Tryz.f3.params.toList args.toList ds p := hA0
  rw [Tryz.params3] at hA hval
  obtain ⟨v0, v1, v2, v3, d0, d1, d2, d3, p0, p1, p2, p3, rfl, rfl, rfl, h0, h1, h2, h3⟩ := trodAll_four hA
  obtain ⟨rfl, rfl⟩ := trodVars_none hV
  obtain ⟨l0, hs0⟩ : ∃ l, StrRow W v0 l := by
    obtain ⟨a0, len, cap, rfl⟩ := okWide_slice Tryz.underlying22 (hval 0 22 v0 rfl rfl)
    obtain ⟨fuel, hf⟩ := h0
    exact strRow_of (hval 0 22 _ rfl rfl) hf
  obtain ⟨l1, hs1⟩ : ∃ l, StrRow W v1 l := by
    obtain ⟨a1, len, cap, rfl⟩ := okWide_slice Tryz.underlying22 (hval 1 22 v1 rfl rfl)
    obtain ⟨fuel, hf⟩ := h1
    exact strRow_of (hval 1 22 _ rfl rfl) hf
  obtain ⟨a2, rfl, rfl, rfl⟩ := open_bool Tryz.underlying4 (hval 2 4 v2 rfl rfl) h2
  obtain ⟨a3, rfl, rfl, rfl, w3⟩ := open_string Tryz.underlying9 (hval 3 9 v3 rfl rfl) h3
  clear hA0 hval0
  simp only [List.append_nil] at hW'
  obtain ⟨m, hm⟩ := cell_ml hsh
  refine (lawAttributesBack v0 v1 l0 l1 a2 a3 m W hs0 hs1 hm hctl).mono fun e W' ⟨he, hw⟩ => ?_
  subst he
  have hlt : ∀ x ∈ (p0 ++ p1), x.block < W.heap.size := fun x hx => hW'.lt x (by simpa using hx)
  exact ⟨_, rfl, post_cells (pa := p0 ++ (p1 ++ ([] ++ []))) (pv := []) hW' (fun _ _ _ => trodAll_mk1 (shut_bool Tryz.underlying4 _))
    (fun sp hsp => trodAll_mk4 (WideElems.Trod_stays laidOutP (by kernel_rfl) (of_decide_eq_true (by kernel_rfl)) h0 (fun x hx => hw.same (hlt x (List.mem_append_left _ hx))) (fun x hx => hsp x (by simp [hx])))
      (WideElems.Trod_stays laidOutP (by kernel_rfl) (of_decide_eq_true (by kernel_rfl)) h1 (fun x hx => hw.same (hlt x (List.mem_append_right _ hx))) (fun x hx => hsp x (by simp [hx])))
      (shut_bool Tryz.underlying4 _) (shut_string Tryz.underlying9 w3)) (fun _ _ => rfl) (by simp) hw (ok_one (by kernel_rfl) rfl (okWide_bool_mk Tryz.underlying4 _))⟩

theorem scanAttributesBack_holds : Rows.ScanAttributesBackSaid :=
  OpenClaim.holds_of_wide 3 Tryz.f3 rfl rfl rfl rfl rfl rfl rfl ⟨rfl, rfl, rfl, rfl, rfl⟩ rfl rfl rfl rfl rfl scanAttributesBack_k1 Tryz.func3 scanAttributesBack_k2
    scanAttributesBack_k3 (by unfold Func.isWrapper; first | (rw [if_pos (by decide +kernel)]; kernel_rfl) | (rw [if_neg (by decide +kernel)]; exact ⟨rfl, rfl⟩))
    (fun os started H enc _ => scanAttributesBack_lifted os started H enc)

theorem scanAttributesBack_card : Rows.ScanAttributesBackCardSaid :=
  Claim7.holds_tied_plain_at .later [] [.data, .data, .pinned] true Rows.scanAttributesBackCard.stood.harness false
    scanAttributesBack_holds (fun _ h => by cases h) scanAttributesBack_k6 (fun _ h => by cases h) scanAttributesBack_row_tie rfl ⟨rfl, rfl⟩ scanAttributesBack_k7 rfl
    (fun f fn hf hfn => by
      obtain rfl : f = 3 := Option.some.inj (scanAttributesBack_k9.symm.trans hf) |>.symm
      obtain rfl : fn = Tryz.f3 := (Option.some.inj (Tryz.func3.symm.trans hfn)).symm
      exact ⟨scanAttributesBack_k4, fun j t ht => by
        rw [Tryz.params3] at ht
        have hm : t ∈ [22, 22, 4, 9] := by simpa using Array.mem_of_getElem? ht
        exact (show Tryz.prog.wantsStandIn t = false by simpa using List.all_eq_true.1 scanAttributesBack_k8 t hm)⟩)
    scanAttributesBack_k5
end Go.Proofs.YtnfccckodgknjaaGreatDoor
