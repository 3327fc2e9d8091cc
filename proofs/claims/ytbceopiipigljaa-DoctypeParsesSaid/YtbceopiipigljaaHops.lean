/-
  A function that jumps by goto along labels: where a jump stands the walk goes on behind its label; how many jumps may come is counted down (for jumps that come to an end by themselves: forward ones).
-/
import Derived.WalkKit
import Derived.ScopeJumps
namespace Go.Proofs.Ytbceopiipigljaa

def hops (P : Program) (F : Nat → Option Code) (Q : Exit → Act → World → Prop) : Nat → Exit → Act → World → Prop
  | 0, .goto _, _, _ => False
  | n + 1, .goto l, a, w => ∃ r, F l = some r ∧ r.wp P (hops P F Q n) a w
  | _, e, a, w => Q e a w

section
variable {P : Program} {F : Nat → Option Code} {a : Act} {w : World} {Q : Exit → Act → World → Prop}
theorem hops_ret (n : Nat) : hops P F Q n .ret a w = Q .ret a w := by cases n <;> rfl
theorem hops_normal (n : Nat) : hops P F Q n .normal a w = Q .normal a w := by cases n <;> rfl
theorem wp_scope_hops {c : Code} (n : Nat) (F : Nat → Option Code) (hF : findLabel c = F) (h : c.wp P (hops P F Q n) a w) : (Code.scope c).wp P Q a w := by
  intro b k cs
  have hg : ∀ l r, F l = some r → gotoIn l (.inScope c :: k) = some (.code r :: .inScope c :: k) := by
    intro l r h; simp [gotoIn, hF, h]
  have key : ∀ n (r : Code) a w, r.wp P (hops P F Q n) a w → ∃ e a' w', Q e a' w' ∧ Arrives P (lone (b.at a (.code r :: .inScope c :: k)) cs w) b k cs e a' w' := by
    intro n
    induction n with
    | zero =>
      intro r a w h
      obtain ⟨e, a₁, w₁, hq, harr⟩ := h b (.inScope c :: k) cs
      cases e with
      | normal => exact ⟨.normal, a₁, w₁, hq, Steps.trans harr (.one step_inScope)⟩
      | exit id => exact ⟨.exit id, a₁, w₁, hq, fun k' hk => harr k' (by simp [exitTo, hk])⟩
      | goto l' => exact hq.elim
      | ret => exact ⟨_, a₁, w₁, hq, harr⟩
      | panic ch => exact ⟨_, a₁, w₁, hq, harr⟩
      | outgrown => exact ⟨_, a₁, w₁, hq, harr⟩
    | succ n ih =>
      intro r a w h
      obtain ⟨e, a₁, w₁, hq, harr⟩ := h b (.inScope c :: k) cs
      cases e with
      | normal => exact ⟨.normal, a₁, w₁, hq, Steps.trans harr (.one step_inScope)⟩
      | exit id => exact ⟨.exit id, a₁, w₁, hq, fun k' hk => harr k' (by simp [exitTo, hk])⟩
      | goto l' =>
        obtain ⟨r', hr, hw⟩ := hq
        obtain ⟨e₂, a₂, w₂, hq₂, harr₂⟩ := ih r' a₁ w₁ hw
        exact ⟨e₂, a₂, w₂, hq₂, .of_steps (harr _ (hg _ _ hr)) harr₂⟩
      | ret => exact ⟨_, a₁, w₁, hq, harr⟩
      | panic ch => exact ⟨_, a₁, w₁, hq, harr⟩
      | outgrown => exact ⟨_, a₁, w₁, hq, harr⟩
  obtain ⟨e, a₁, w₁, hq, harr⟩ := key n c a w h
  cases e with
  | normal => exact ⟨.normal, a₁, w₁, hq, .head step_scope harr⟩
  | exit id => exact ⟨.exit id, a₁, w₁, hq, fun k' hk => .head step_scope (harr k' hk)⟩
  | goto l' => exact ⟨_, a₁, w₁, hq, .of_steps (.one step_scope) harr⟩
  | ret => exact ⟨_, a₁, w₁, hq, .of_steps (.one step_scope) harr⟩
  | panic ch => exact ⟨_, a₁, w₁, hq, .of_steps (.one step_scope) harr⟩
  | outgrown => exact ⟨_, a₁, w₁, hq, .of_steps (.one step_scope) harr⟩
end
end Go.Proofs.Ytbceopiipigljaa
