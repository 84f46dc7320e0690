/-
  A scope in which the run jumps to several labels: what holds at each label, and a number that every pass lowers. No program in sight.
-/
import Derived.ScopeJumps
import Derived.WalkMore
namespace Go.Proofs.YtnfccckodgknjaaGreatDoor

/-- As Q; by a goto to label l: J l. -/
def Jumps (J : Nat → Act → World → Prop) (Q : Exit → Act → World → Prop) : Exit → Act → World → Prop
  | .goto l, a, w => J l a w
  | e, a, w => Q e a w

/-- By a goto to label l: J l; by a return: R; nothing else. -/
def Jmp (J : Nat → Act → World → Prop) (R : Act → World → Prop) : Exit → Act → World → Prop
  | .goto l, a, w => J l a w
  | .ret, a, w => R a w
  | _, _, _ => False

section
variable {P : Program} {a : Act} {w : World} {Q : Exit → Act → World → Prop}

theorem wp_scope_gotos {c : Code} (I : Nat → Nat → Act → World → Prop) (hf : ∀ l n a w, I l n a w → ∃ rest, findLabel c l = some rest)
    (first : ∀ (J : Nat → Act → World → Prop) (R : Act → World → Prop), (∀ l n a w, I l n a w → J l a w) → (∀ a w, Q .ret a w → R a w) → c.wp P (Jmp J R) a w)
    (pass : ∀ l rest n a w, findLabel c l = some rest → I l n a w → ∀ (J : Nat → Act → World → Prop) (R : Act → World → Prop), (∀ l' n' a' w', n' < n → I l' n' a' w' → J l' a' w') → (∀ a w, Q .ret a w → R a w) → rest.wp P (Jmp J R) a w) :
    (Code.scope c).wp P Q a w := by
  intro b k cs
  have mono : ∀ (J : Nat → Act → World → Prop), ∀ (e : Exit) (a : Act) (w : World), Jmp J (fun a w => Q .ret a w) e a w → Jumps J Q e a w := by
    intro J e a w h
    cases e <;> first | exact h | exact (h : False).elim
  have first' := Code.wp_mono (mono _) (first (fun l a w => ∃ n, I l n a w) (fun a w => Q .ret a w) (fun l n a w h => ⟨n, h⟩) (fun a w h => h))
  have key : ∀ n l a w, I l n a w → ∀ k', gotoIn l (.inScope c :: k) = some k' → ∃ e a' w', Q e a' w' ∧ Arrives P (lone (b.at a k') cs w) b k cs e a' w' := by
    intro n
    induction n using Nat.strongRecOn with
    | _ n ih =>
      intro l a w hI k' hk'
      obtain ⟨rest, hr⟩ := hf l n a w hI
      have hg : gotoIn l (.inScope c :: k) = some (.code rest :: .inScope c :: k) := by simp [gotoIn, hr]
      rw [hg] at hk'
      cases hk'
      have hp := Code.wp_mono (mono _) (pass l rest n a w hr hI (fun l' a' w' => ∃ n', n' < n ∧ I l' n' a' w') (fun a w => Q .ret a w) (fun l' n' a' w' h1 h2 => ⟨n', h1, h2⟩) (fun a w h => h))
      obtain ⟨e, a₁, w₁, hq, harr⟩ := hp b (.inScope c :: k) cs
      cases e with
      | normal => exact ⟨.normal, a₁, w₁, hq, Steps.trans harr (.one step_inScope)⟩
      | exit id => exact ⟨.exit id, a₁, w₁, hq, fun k' hk => harr k' (by simp [exitTo, hk])⟩
      | goto l' =>
        obtain ⟨n', hlt, hI'⟩ := hq
        obtain ⟨rest', hr'⟩ := hf l' n' a₁ w₁ hI'
        have hg' : gotoIn l' (.inScope c :: k) = some (.code rest' :: .inScope c :: k) := by simp [gotoIn, hr']
        obtain ⟨e₂, a₂, w₂, hq₂, harr₂⟩ := ih n' hlt l' a₁ w₁ hI' _ hg'
        exact ⟨e₂, a₂, w₂, hq₂, .of_steps (harr _ hg') harr₂⟩
      | ret => exact ⟨_, a₁, w₁, hq, harr⟩
      | panic ch => exact ⟨_, a₁, w₁, hq, harr⟩
      | outgrown => exact ⟨_, a₁, w₁, hq, harr⟩
  obtain ⟨e, a₁, w₁, hq, harr⟩ := first' b (.inScope c :: k) cs
  cases e with
  | normal => exact ⟨.normal, a₁, w₁, hq, .head step_scope (Steps.trans harr (.one step_inScope))⟩
  | exit id => exact ⟨.exit id, a₁, w₁, hq, fun k' hk => .head step_scope (harr k' (by simp [exitTo, hk]))⟩
  | goto l' =>
    obtain ⟨n', hI'⟩ := hq
    obtain ⟨rest', hr'⟩ := hf l' n' a₁ w₁ hI'
    have hg' : gotoIn l' (.inScope c :: k) = some (.code rest' :: .inScope c :: k) := by simp [gotoIn, hr']
    obtain ⟨e₂, a₂, w₂, hq₂, harr₂⟩ := key n' l' a₁ w₁ hI' _ hg'
    exact ⟨e₂, a₂, w₂, hq₂, .of_steps (.head step_scope (harr _ hg')) harr₂⟩
  | ret => exact ⟨_, a₁, w₁, hq, .of_steps (.one step_scope) harr⟩
  | panic ch => exact ⟨_, a₁, w₁, hq, .of_steps (.one step_scope) harr⟩
  | outgrown => exact ⟨_, a₁, w₁, hq, .of_steps (.one step_scope) harr⟩
/-- From label l on, the run comes to a jump at a smaller number, or to its end. -/
def Pass (P : Program) (Q : Exit → Act → World → Prop) (c : Code) (I : Nat → Nat → Act → World → Prop) (l : Nat) : Prop :=
  ∀ rest n a w, findLabel c l = some (.seq .skip rest) → I l n a w → ∀ (J : Nat → Act → World → Prop) (R : Act → World → Prop), (∀ l' n' a' w', n' < n → I l' n' a' w' → J l' a' w') → (∀ a w, Q .ret a w → R a w) → rest.wp P (Jmp J R) a w

theorem wp_scope_gotos_k {c : Code} (I : Nat → Nat → Act → World → Prop) (rk : Nat → Nat) (hf : ∀ l n a w, I l n a w → ∃ rest, findLabel c l = some (.seq .skip rest))
    (first : (∀ l, Pass P Q c I l) → ∀ (J : Nat → Act → World → Prop) (R : Act → World → Prop), (∀ l n a w, I l n a w → J l a w) → (∀ a w, Q .ret a w → R a w) → c.wp P (Jmp J R) a w)
    (pass : ∀ l, (∀ l', rk l' < rk l → Pass P Q c I l') → Pass P Q c I l) : (Code.scope c).wp P Q a w := by
  have all : ∀ n l, rk l = n → Pass P Q c I l := by
    intro n
    induction n using Nat.strongRecOn with
    | _ n ih =>
      intro l hl
      exact pass l fun l' hlt => ih (rk l') (by omega) l' rfl
  refine wp_scope_gotos I (fun l n a w h => let ⟨_, h'⟩ := hf l n a w h; ⟨_, h'⟩) (first fun l => all _ l rfl) fun l rest n a w h1 h2 J R hJ hR => ?_
  obtain ⟨X, hX⟩ := hf l n a w h2
  rw [h1] at hX
  cases hX
  exact wp_seq (wp_skip (all _ l rfl X n a w h1 h2 J R hJ hR))
end
end Go.Proofs.YtnfccckodgknjaaGreatDoor
