/-
  The law KindsEach of flail/flaillaw17 answers true for every input, and changes nothing that was there. No condition.
-/
import Derived.Test.YtoainaihklncoaaRows
import Derived.Test.YtoainaihklncoaaKndAwake
import Derived.WalkKit
import Derived.ProofKit
import Derived.ChangeOld
import Derived.Below
import Derived.OpenShut
import Derived.ShutString
namespace Go.Proofs.Ytoainaihklncoaa.kindsEach
open Go.ChangeShapes Go.WideShapes Go.ChangeAt Go.RowKit
open Go.ChangeMaps (open_string shut_string)
set_option linter.unusedVariables false      -- a walk need not use every 'w<i>' (that an integer argument fits its kind)

theorem own : ownKnob Try.prog.godebug = none := by kernel_rfl

set_option maxRecDepth 100000 in
set_option maxHeartbeats 8000000 in
theorem walk (a0 : Int) (w0 : (Lit.int .u16 a0).wf = true) (w : World) :
    Calls Try.prog 4 #[.int .u16 a0] w fun e w' => e = .returned (.bool true) ∧ Below w.heap.size w w' := by
  have hba : 0 ≤ a0 ∧ a0 ≤ 65535 := by simpa [Lit.wf, IntKind.min, IntKind.max, IntKind.signed, IntKind.bits] using w0
  obtain ⟨hba0, hba1⟩ := hba
  clear w0
  have HW := Lib.hid (knd_here w)
  skip
  obtain ⟨R, hR⟩ : ∃ R : Nat, a0 % 78 = (R : Int) := ⟨(a0 % 78).toNat, by omega⟩
  have hR2 : R < 78 := by omega
  have hRT : R < nmL17.length := hR2
  have hRC := nm17_cell R hRT
  have hRS := nm17_short _ (List.getElem_mem hRT)
  obtain ⟨nR, hnR⟩ : ∃ n, nmL17[R] = n := ⟨_, rfl⟩
  rw [hnR] at hRC hRS
  obtain ⟨NR, hNR⟩ : ∃ N : ByteArray, (⟨nR.toArray⟩ : ByteArray) = N := ⟨_, rfl⟩
  have hNR2 : NR.data.toList = nR := by rw [← hNR, List.toList_toArray]
  rw [hNR] at hRC
  have hNRs : NR.size ≤ 10 := by rw [Lib.size_eq, hNR2]; exact hRS
  have CR := Lib.hid hRC
  have MR := Lib.hid hNR2
  clear hRC hRS hnR hNR hNR2 hRT
  have Ph := fun w h => Lib.hid (kHides_any NR w h)
  have Dh := fun w => Lib.hid (refHides17_any NR w)
  obtain ⟨yh, hyh⟩ : ∃ y, hidN NR.data.toList = y := ⟨_, rfl⟩
  rw [hyh] at Ph Dh
  clear hyh
  have Pk := fun w h => Lib.hid (kKeeps_any NR w h)
  have Dk := fun w => Lib.hid (refKeeps17_any NR w)
  obtain ⟨yk, hyk⟩ : ∃ y, keeN NR.data.toList = y := ⟨_, rfl⟩
  rw [hyk] at Pk Dk
  clear hyk
  have Pl := fun w h => Lib.hid (kLines_any NR w h)
  have Dl := fun w => Lib.hid (refLines17_any NR w)
  obtain ⟨yl, hyl⟩ : ∃ y, linN NR.data.toList = y := ⟨_, rfl⟩
  rw [hyl] at Pl Dl
  clear hyl
  have Pv := fun w h => Lib.hid (kVoid_any NR w h)
  have Dv := fun w => Lib.hid (refVoid17_any NR w)
  obtain ⟨yv, hyv⟩ : ∃ y, voiN NR.data.toList = y := ⟨_, rfl⟩
  rw [hyv] at Pv Dv
  clear hyv
  have HNM := fun w => Lib.hid (refNames17_any w)
  go_enter Try.func4, Try.ntmps4
  go_wp2_with (fail)
  refine (kndAwake_any w HW.out).mono ?_
  rintro e w1 ⟨rfl, c1⟩
  have B1 := Lib.hid c1
  clear c1
  go_wp2_with (fail)
  refine (HNM _).out.mono ?_
  rintro e w2 ⟨rfl, hh, c2⟩
  have B2 := Lib.hid (B1.out.trans (c2.mono B1.out.size))
  clear c2
  have hcR : w2.cell? ⟨w1.heap.size, R, none⟩ = some (.string NR) := by rw [cell_of_row _ _ _ _ _ _ hh]; exact CR.out
  clear hh
  go_wp2_with (fail)
  refine (Ph _ (HW.out.below B2.out)).out.mono ?_
  rintro e w3 ⟨rfl, c⟩
  have B3 := Lib.hid (B2.out.trans (c.mono B2.out.size))
  clear c
  go_wp2_with (fail)
  refine (Dh _).out.mono ?_
  rintro e wx ⟨rfl, hwx⟩
  obtain rfl := hwx.symm
  go_wp2_with (fail)
  refine (Pk _ (HW.out.below B3.out)).out.mono ?_
  rintro e w4 ⟨rfl, c⟩
  have B4 := Lib.hid (B3.out.trans (c.mono B3.out.size))
  clear c
  go_wp2_with (fail)
  refine (Dk _).out.mono ?_
  rintro e wx ⟨rfl, hwx⟩
  obtain rfl := hwx.symm
  go_wp2_with (fail)
  refine (Pl _ (HW.out.below B4.out)).out.mono ?_
  rintro e w5 ⟨rfl, c⟩
  have B5 := Lib.hid (B4.out.trans (c.mono B4.out.size))
  clear c
  go_wp2_with (fail)
  refine (Dl _).out.mono ?_
  rintro e wx ⟨rfl, hwx⟩
  obtain rfl := hwx.symm
  go_wp2_with (fail)
  refine (Pv _ (HW.out.below B5.out)).out.mono ?_
  rintro e w6 ⟨rfl, c⟩
  have B6 := Lib.hid (B5.out.trans (c.mono B5.out.size))
  clear c
  go_wp2_with (fail)
  refine (Dv _).out.mono ?_
  rintro e wx ⟨rfl, hwx⟩
  obtain rfl := hwx.symm
  go_wp2
  go_ret
  exact ⟨ret_bool (by simp), B6.out⟩
  -- go_wp2
  -- go_ret
  -- exact ⟨rfl, by repeat (first | exact Grown.refl _ | apply Grown.drew | apply Grown.alloc)⟩

set_option maxRecDepth 100000 in
theorem lifted (os : Os) (started : os.Started) (H : Type) (enc : TypeId × Value → H) :
    ReturnsInHanded {} Try.checked os 4 .any (Rows.kindsEachSpec.pre6 enc Try.prog Try.f4 Rows.kindsEachRow.domain false) (Rows.kindsEachSpec.post enc Try.prog Try.f4 false true false false) := by
  refine returnsInHanded_of_change (C := Try.checked) own started (by kernel_rfl) Try.func4
    (ChangeSpec.witness6 (enc := enc) (C := Try.checked) false ⟨#[], #[.int .u16 0], []⟩ 8 (by kernel_rfl) (by kernel_rfl) (by kernel_rfl) (by kernel_rfl)) ?_
  intro W base args ds gs before hval0 hW hcnd _
  have hval : ∀ (j : Nat) t v, Try.f4.params[j]? = some t → args[j]? = some v → Value.okWide Try.prog W .any base t v := hval0
  have hW' := hW
  obtain ⟨p, q, hA0, hV, rfl, hfz, hnd⟩ := hW
  have hA : DataW.TrodAll enc Try.prog W 0 (fun _ => true) true Try.f4.params.toList args.toList ds p := hA0
  rw [Try.params4] at hA hval
  obtain ⟨v0, vs0, d0, ds0, p0, q0, hargs, rfl, rfl, h0, r0⟩ := trodAll_cons hA
  obtain ⟨rfl, rfl, rfl⟩ := trodAll_nil r0
  obtain rfl : args = #[v0] := by cases args; simp_all
  obtain ⟨rfl, rfl⟩ := trodVars_none hV
  obtain ⟨a0, rfl, rfl, rfl, w0⟩ := open_int Try.underlying25 (hval 0 25 v0 rfl rfl) h0
  clear hA0 hval0
  refine (walk a0 w0 W).mono fun e W' ⟨he, bel⟩ => ?_
  subst he
  exact ⟨_, rfl, _, _, _, [], _, [], hW', trodAll_mk1 (shut_bool Try.underlying4 _), (trodAll_cons_mk (shut_int Try.underlying25 w0) trodAll_mk0), rfl, bel.frame _, fun h => by cases h⟩

theorem over : Rows.kindsEachRow.holds Try.pinned (OpenSpec.ofChange Rows.kindsEachSpec) :=
  OpenClaim.holds_of_wide 4 Try.f4 rfl rfl rfl rfl rfl rfl rfl ⟨rfl, rfl, rfl, rfl, rfl⟩ rfl rfl rfl rfl rfl (by kernel_rfl) Try.func4 (by kernel_rfl)
    (of_decide_eq_true (by kernel_rfl)) (by unfold Func.isWrapper; first | (rw [if_pos (by decide +kernel)]; kernel_rfl) | (rw [if_neg (by decide +kernel)]; exact ⟨rfl, rfl⟩))
    (fun os started H enc _ => lifted os started H enc)

/-- ████ THE STATEMENT ████ -/
theorem proved : Rows.KindsEachSaid :=
  over
end Go.Proofs.Ytoainaihklncoaa.kindsEach
