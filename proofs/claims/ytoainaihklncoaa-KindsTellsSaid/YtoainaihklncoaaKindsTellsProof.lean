/-
  The law KindsTells of flail/flaillaw17 answers true for every input, and changes nothing that was there. No condition.
-/
import Derived.Test.YtoainaihklncoaaRows
import Derived.Test.YtoainaihklncoaaKndAwake
import Derived.WalkKit
import Derived.ProofKit
import Derived.ChangeOld
import Derived.Below
import Derived.OpenShut
import Derived.ShutString
namespace Go.Proofs.Ytoainaihklncoaa.kindsTells
open Go.ChangeShapes Go.WideShapes Go.ChangeAt Go.RowKit
open Go.ChangeMaps (open_string shut_string)
set_option linter.unusedVariables false      -- a walk need not use every 'w<i>' (that an integer argument fits its kind)

theorem own : ownKnob Try.prog.godebug = none := by kernel_rfl

set_option maxRecDepth 100000 in
set_option maxHeartbeats 8000000 in
theorem walk (a0 : ByteArray) (w0 : a0.size ≤ maxLen) (w : World) :
    Calls Try.prog 3 #[.string a0] w fun e w' => e = .returned (.bool true) ∧ Below w.heap.size w w' := by
  clear w0
  have HW := Lib.hid (knd_here w)
  skip
  by_cases hlen : 60 < a0.size
  · have hc : decide ((60 : Int) < (a0.size : Int)) = true := decide_eq_true (by omega)
    clear hlen
    go_enter Try.func3, Try.ntmps3
    go_wp2_with (fail)
    refine (kndAwake_any w HW.out).mono ?_
    rintro e w1 ⟨rfl, c1⟩
    go_wp2
    go_ret
    exact ⟨rfl, c1⟩
  have d0 : decide ((60 : Int) < (a0.size : Int)) = false := decide_eq_false (by omega)
  have Ph := fun w h => Lib.hid (kHides_any a0 w h)
  have Dh := fun w => Lib.hid (refHides17_any a0 w)
  obtain ⟨yh, hyh⟩ : ∃ y, hidN a0.data.toList = y := ⟨_, rfl⟩
  rw [hyh] at Ph Dh
  clear hyh
  have Pk := fun w h => Lib.hid (kKeeps_any a0 w h)
  have Dk := fun w => Lib.hid (refKeeps17_any a0 w)
  obtain ⟨yk, hyk⟩ : ∃ y, keeN a0.data.toList = y := ⟨_, rfl⟩
  rw [hyk] at Pk Dk
  clear hyk
  have Pl := fun w h => Lib.hid (kLines_any a0 w h)
  have Dl := fun w => Lib.hid (refLines17_any a0 w)
  obtain ⟨yl, hyl⟩ : ∃ y, linN a0.data.toList = y := ⟨_, rfl⟩
  rw [hyl] at Pl Dl
  clear hyl
  have Pv := fun w h => Lib.hid (kVoid_any a0 w h)
  have Dv := fun w => Lib.hid (refVoid17_any a0 w)
  obtain ⟨yv, hyv⟩ : ∃ y, voiN a0.data.toList = y := ⟨_, rfl⟩
  rw [hyv] at Pv Dv
  clear hyv
  clear hlen
  go_enter Try.func3, Try.ntmps3
  go_wp2_with (fail)
  refine (kndAwake_any w HW.out).mono ?_
  rintro e w1 ⟨rfl, c1⟩
  have B1 := Lib.hid c1
  clear c1
  go_wp2_with (fail)
  refine (Ph _ (HW.out.below B1.out)).out.mono ?_
  rintro e w2 ⟨rfl, c⟩
  have B2 := Lib.hid (B1.out.trans (c.mono B1.out.size))
  clear c
  go_wp2_with (fail)
  refine (Dh _).out.mono ?_
  rintro e wx ⟨rfl, hwx⟩
  obtain rfl := hwx.symm
  go_wp2_with (fail)
  refine (Pk _ (HW.out.below B2.out)).out.mono ?_
  rintro e w3 ⟨rfl, c⟩
  have B3 := Lib.hid (B2.out.trans (c.mono B2.out.size))
  clear c
  go_wp2_with (fail)
  refine (Dk _).out.mono ?_
  rintro e wx ⟨rfl, hwx⟩
  obtain rfl := hwx.symm
  go_wp2_with (fail)
  refine (Pl _ (HW.out.below B3.out)).out.mono ?_
  rintro e w4 ⟨rfl, c⟩
  have B4 := Lib.hid (B3.out.trans (c.mono B3.out.size))
  clear c
  go_wp2_with (fail)
  refine (Dl _).out.mono ?_
  rintro e wx ⟨rfl, hwx⟩
  obtain rfl := hwx.symm
  go_wp2_with (fail)
  refine (Pv _ (HW.out.below B4.out)).out.mono ?_
  rintro e w5 ⟨rfl, c⟩
  have B5 := Lib.hid (B4.out.trans (c.mono B4.out.size))
  clear c
  go_wp2_with (fail)
  refine (Dv _).out.mono ?_
  rintro e wx ⟨rfl, hwx⟩
  obtain rfl := hwx.symm
  go_wp2
  go_ret
  exact ⟨ret_bool (by simp), B5.out⟩
  -- go_wp2
  -- go_ret
  -- exact ⟨rfl, by repeat (first | exact Grown.refl _ | apply Grown.drew | apply Grown.alloc)⟩

set_option maxRecDepth 100000 in
theorem lifted (os : Os) (started : os.Started) (H : Type) (enc : TypeId × Value → H) :
    ReturnsInHanded {} Try.checked os 3 .any (Rows.kindsTellsSpec.pre6 enc Try.prog Try.f3 Rows.kindsTellsRow.domain false) (Rows.kindsTellsSpec.post enc Try.prog Try.f3 false true false false) := by
  refine returnsInHanded_of_change (C := Try.checked) own started (by kernel_rfl) Try.func3
    (ChangeSpec.witness6 (enc := enc) (C := Try.checked) false ⟨#[], #[.string ByteArray.empty], []⟩ 8 (by kernel_rfl) (by kernel_rfl) (by kernel_rfl) (by kernel_rfl)) ?_
  intro W base args ds gs before hval0 hW hcnd _
  have hval : ∀ (j : Nat) t v, Try.f3.params[j]? = some t → args[j]? = some v → Value.okWide Try.prog W .any base t v := hval0
  have hW' := hW
  obtain ⟨p, q, hA0, hV, rfl, hfz, hnd⟩ := hW
  have hA : DataW.TrodAll enc Try.prog W 0 (fun _ => true) true Try.f3.params.toList args.toList ds p := hA0
  rw [Try.params3] at hA hval
  obtain ⟨v0, vs0, d0, ds0, p0, q0, hargs, rfl, rfl, h0, r0⟩ := trodAll_cons hA
  obtain ⟨rfl, rfl, rfl⟩ := trodAll_nil r0
  obtain rfl : args = #[v0] := by cases args; simp_all
  obtain ⟨rfl, rfl⟩ := trodVars_none hV
  obtain ⟨a0, rfl, rfl, rfl, w0⟩ := open_string Try.underlying9 (hval 0 9 v0 rfl rfl) h0
  clear hA0 hval0
  refine (walk a0 w0 W).mono fun e W' ⟨he, bel⟩ => ?_
  subst he
  exact ⟨_, rfl, _, _, _, [], _, [], hW', trodAll_mk1 (shut_bool Try.underlying4 _), (trodAll_cons_mk (shut_string Try.underlying9 w0) trodAll_mk0), rfl, bel.frame _, fun h => by cases h⟩

theorem over : Rows.kindsTellsRow.holds Try.pinned (OpenSpec.ofChange Rows.kindsTellsSpec) :=
  OpenClaim.holds_of_wide 3 Try.f3 rfl rfl rfl rfl rfl rfl rfl ⟨rfl, rfl, rfl, rfl, rfl⟩ rfl rfl rfl rfl rfl (by kernel_rfl) Try.func3 (by kernel_rfl)
    (of_decide_eq_true (by kernel_rfl)) (by unfold Func.isWrapper; first | (rw [if_pos (by decide +kernel)]; kernel_rfl) | (rw [if_neg (by decide +kernel)]; exact ⟨rfl, rfl⟩))
    (fun os started H enc _ => lifted os started H enc)

/-- ████ THE STATEMENT ████ -/
theorem proved : Rows.KindsTellsSaid :=
  over
end Go.Proofs.Ytoainaihklncoaa.kindsTells
