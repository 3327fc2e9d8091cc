/-
  The law RenderTells of flail/flaillaw19 answers true for every input, and changes nothing that was there. No condition.
-/
import Derived.Test.YtappdjhhaohejaaRows
import Derived.Test.YtappdjhhaohejaaRenAwake
import Derived.Test.YtappdjhhaohejaaRenDo
import Derived.Test.YtappdjhhaohejaaTkFew
import Derived.Test.YtappdjhhaohejaaTkArg
import Derived.WalkKit
import Derived.ProofKit
import Derived.OpenShut
import Derived.ShutString
import Derived.ChangeOld
import Derived.Below
namespace Go.Proofs.Ytappdjhhaohejaa.renderTells
open Go.ChangeShapes Go.WideShapes Go.ChangeAt Go.RowKit
open Go.ChangeMaps (open_string shut_string)
set_option linter.unusedVariables false

theorem own : ownKnob Try.prog.godebug = none := by kernel_rfl
theorem laidOut : laidOutB Try.prog = true := by kernel_rfl

set_option maxRecDepth 100000 in
set_option maxHeartbeats 8000000 in
theorem walk (a0 : Option Addr) (len0 cap0 : Nat) (l0 : List TokP) (w : World) (w0 : IsToks w a0 len0 cap0 l0) :
    Calls Try.prog 3 #[.slice a0 len0 cap0] w fun e w' => e = .returned (.bool true) ∧ Below w.heap.size w w' := by
  have hHT := (ren_here w)
  have HW := Lib.hid hHT
  clear hHT
  skip
  have HL := Lib.hid w0
  have hlc := w0.2.1
  have hm := w0.2.2.1
  unfold maxLen at hm
  clear w0
  go_enter Try.func3, Try.ntmps3
  go_wp2_with (fail)
  refine (renAwake_any w HW.out).mono ?_
  rintro e w1 ⟨rfl, c1⟩
  have B1 := Lib.hid c1
  clear c1
  go_wp2_with (fail)
  refine (refFew15_any a0 len0 cap0 l0 w1 (HL.out.below B1.out (Nat.le_refl _))).mono ?_
  rintro e w2 ⟨⟨few, rfl, hfew⟩, c2⟩
  have B2 := Lib.hid (B1.out.trans (c2.mono B1.out.size))
  have HF := Lib.hid hfew
  clear c2 hfew
  cases few
  · go_wp2
    go_ret
    exact ⟨rfl, B2.out⟩
  obtain ⟨h60, h200⟩ := HF.out rfl
  have H200 := Lib.hid (show ∀ t ∈ l0, t.text.length ≤ 65536 from fun t ht => Nat.le_trans (h200 t ht) (by decide))
  have C1 := fun w' (hb : Below w.heap.size w w') h => Lib.hid (ren_any a0 len0 cap0 l0 w' (HL.out.below hb (Nat.le_refl _)).bare (by omega) H200.out h)
  have C2 := fun w' (hb : Below w.heap.size w w') => Lib.hid (refRender19_any a0 len0 cap0 l0 w' (HL.out.below hb (Nat.le_refl _)).bare (by omega) H200.out)
  obtain ⟨Z, hZ⟩ : ∃ Z, (⟨(renL l0).toArray⟩ : ByteArray) = Z := ⟨_, rfl⟩
  rw [hZ] at C1 C2
  clear h200 HF hZ
  go_wp2_with (fail)
  refine (C1 _ B2.out (HW.out.below B2.out)).out.mono ?_
  rintro e w3 ⟨rfl, c3⟩
  have B3 := Lib.hid (B2.out.trans (c3.mono B2.out.size))
  clear c3
  go_wp2_with (fail)
  refine (C2 _ B3.out).out.mono ?_
  rintro e w4 ⟨rfl, c4⟩
  go_wp2
  go_ret
  exact ⟨ret_bool (by simp), B3.out.trans (c4.mono B3.out.size)⟩

set_option maxRecDepth 100000 in
theorem lifted (os : Os) (started : os.Started) (H : Type) (enc : TypeId × Value → H) :
    ReturnsInHanded {} Try.checked os 3 .any (Rows.renderTellsSpec.pre6 enc Try.prog Try.f3 Rows.renderTellsRow.domain false) (Rows.renderTellsSpec.post enc Try.prog Try.f3 false true false false) := by
  refine returnsInHanded_of_change (C := Try.checked) own started (by kernel_rfl) Try.func3
    (ChangeSpec.witness6 (enc := enc) (C := Try.checked) false ⟨#[], #[.slice none 0 0], []⟩ 8 (by kernel_rfl) (by kernel_rfl) (by kernel_rfl) (by kernel_rfl)) ?_
  intro W base args ds gs before hval0 hW hcnd _
  have hval : ∀ (j : Nat) t v, Try.f3.params[j]? = some t → args[j]? = some v → Value.okWide Try.prog W .any base t v := hval0
  have hW' := hW
  obtain ⟨p, q, hA0, hV, rfl, hfz, hnd⟩ := hW
  have hA : DataW.TrodAll enc Try.prog W 0 (fun _ => true) true Try.f3.params.toList args.toList ds p := hA0
  rw [Try.params3] at hA hval
  obtain ⟨v0, vs0, d0, ds0, p0, q0, hargs, rfl, rfl, h0, r0⟩ := trodAll_cons hA
  obtain ⟨rfl, rfl, rfl⟩ := trodAll_nil r0
  obtain rfl : args = #[v0] := by cases args; simp_all
  obtain ⟨rfl, rfl⟩ := trodVars_none hV
  obtain ⟨a0, len0, cap0, rfl⟩ := okWide_slice Try.underlying22 (hval 0 22 v0 rfl rfl)
  have k0 := h0
  have lt0 : ∀ x ∈ p0, x.block < W.heap.size := by obtain ⟨m, hm⟩ := k0; exact DataW.trod_lt m _ _ _ hm
  obtain ⟨l0, w0⟩ : ∃ l, IsToks W a0 len0 cap0 l := by
    obtain ⟨fuel, hf⟩ := h0
    exact isToks_arg (by simp [Value.cells]) hf
  clear hA0 hval0
  refine (walk a0 len0 cap0 l0 W w0).mono fun e W' ⟨he, bel⟩ => ?_
  subst he
  exact ⟨_, rfl, _, _, _, [], _, [], hW', trodAll_mk1 (shut_bool Try.underlying4 _), (trodAll_cons_mk (Below.trod laidOut (by kernel_rfl) (of_decide_eq_true (by kernel_rfl)) k0 bel lt0) trodAll_mk0), rfl, bel.frame _, fun h => by cases h⟩

theorem over : Rows.renderTellsRow.holds Try.pinned (OpenSpec.ofChange Rows.renderTellsSpec) :=
  OpenClaim.holds_of_wide 3 Try.f3 rfl rfl rfl rfl rfl rfl rfl ⟨rfl, rfl, rfl, rfl, rfl⟩ rfl rfl rfl rfl rfl (by kernel_rfl) Try.func3 (by kernel_rfl)
    (of_decide_eq_true (by kernel_rfl)) (by unfold Func.isWrapper; first | (rw [if_pos (by decide +kernel)]; kernel_rfl) | (rw [if_neg (by decide +kernel)]; exact ⟨rfl, rfl⟩))
    (fun os started H enc _ => lifted os started H enc)

/-- the statement -/
theorem proved : Rows.RenderTellsSaid := over
end Go.Proofs.Ytappdjhhaohejaa.renderTells
