/-
  A function that jumps back to one label: what holds at the label ('J'), and a measure that every pass lowers; the way up to the label is walked once.
-/
import Derived.WalkKit
import Derived.ScopeJumps
namespace Go.Proofs.Ytbcmfcddkegcoaa

section
variable {P : Program} {a : Act} {w : World} {Q : Exit → Act → World → Prop}
theorem jump_mono (l : Nat) {J J' : Act → World → Prop} (h : ∀ a w, J a w → J' a w) : ∀ e a w, Exit.jump l J Q e a w → Exit.jump l J' Q e a w := by
  intro e a w h1
  cases e with
  | goto l' => exact ⟨h1.1, h _ _ h1.2⟩
  | normal => exact h1
  | exit id => exact h1
  | ret => exact h1
  | panic ch => exact h1
  | outgrown => exact h1
theorem wp_scope_label {c r : Code} (l : Nat) (J : Act → World → Prop) (μ : Act → World → Nat) (hf : findLabel c l = some (Code.skip.seq r))
    (pass : ∀ a w, J a w → r.wp P (Exit.jump l (fun a' w' => J a' w' ∧ μ a' w' < μ a w) Q) a w)
    (first : (∀ a w, J a w → r.wp P (Exit.jump l J Q) a w) → c.wp P (Exit.jump l J Q) a w) : (Code.scope c).wp P Q a w :=
  wp_scope_jumps l J μ hf (first fun a w h => wp_mono (pass a w h) (jump_mono l fun _ _ h => h.1)) fun a w h => wp_seq (wp_skip (pass a w h))
end
end Go.Proofs.Ytbcmfcddkegcoaa
