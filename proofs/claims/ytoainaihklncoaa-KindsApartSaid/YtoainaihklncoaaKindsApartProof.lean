/-
  The law KindsApart of flail/flaillaw17 answers true for every input, and changes nothing that was there. No condition.
-/
import Derived.Test.YtoainaihklncoaaRows
import Derived.Test.YtoainaihklncoaaKndAwake
import Derived.WalkKit
import Derived.ProofKit
import Derived.ChangeOld
import Derived.Below
import Derived.OpenShut
import Derived.ShutString
namespace Go.Proofs.Ytoainaihklncoaa.kindsApart
open Go.ChangeShapes Go.WideShapes Go.ChangeAt Go.RowKit
open Go.ChangeMaps (open_string shut_string)
set_option linter.unusedVariables false      -- a walk need not use every 'w<i>' (that an integer argument fits its kind)

theorem own : ownKnob Try.prog.godebug = none := by kernel_rfl

theorem other_none (s : ByteArray) : hidN (s ++ ⟨#[32, 120]⟩).data.toList = false ∧ keeN (s ++ ⟨#[32, 120]⟩).data.toList = false ∧ voiN (s ++ ⟨#[32, 120]⟩).data.toList = false ∧ linN (s ++ ⟨#[32, 120]⟩).data.toList = 0 :=
  knd_byte _ 32 (by simp [ByteArray.data_append]) (by decide)
set_option maxRecDepth 100000 in
set_option maxHeartbeats 8000000 in
theorem walk (a0 : ByteArray) (w0 : a0.size ≤ maxLen) (w : World) :
    Calls Try.prog 5 #[.string a0] w fun e w' => e = .returned (.bool true) ∧ Below w.heap.size w w' := by
  clear w0
  have HW := Lib.hid (knd_here w)
  skip
  by_cases hlen : 60 < a0.size
  · have hc : decide ((60 : Int) < (a0.size : Int)) = true := decide_eq_true (by omega)
    clear hlen
    go_enter Try.func5, Try.ntmps5
    go_wp2_with (fail)
    refine (kndAwake_any w HW.out).mono ?_
    rintro e w1 ⟨rfl, c1⟩
    go_wp2
    go_ret
    exact ⟨rfl, c1⟩
  have d0 : decide ((60 : Int) < (a0.size : Int)) = false := decide_eq_false (by omega)
  have HZ := Lib.hid (other_none a0)
  have Qh := fun w h => Lib.hid (kHides_any (a0 ++ ⟨#[32, 120]⟩) w h)
  rw [HZ.out.1] at Qh
  have Qk := fun w h => Lib.hid (kKeeps_any (a0 ++ ⟨#[32, 120]⟩) w h)
  rw [HZ.out.2.1] at Qk
  have Ql := fun w h => Lib.hid (kLines_any (a0 ++ ⟨#[32, 120]⟩) w h)
  rw [HZ.out.2.2.2] at Ql
  have Qv := fun w h => Lib.hid (kVoid_any (a0 ++ ⟨#[32, 120]⟩) w h)
  rw [HZ.out.2.2.1] at Qv
  have HAP := Lib.hid (hid_apart a0.data.toList)
  have HVO := Lib.hid (voi_apart a0.data.toList)
  have HLR := Lib.hid (lin_range a0.data.toList)
  have Ph := fun w h => Lib.hid (kHides_any a0 w h)
  obtain ⟨yh, hyh⟩ : ∃ y, hidN a0.data.toList = y := ⟨_, rfl⟩
  rw [hyh] at Ph
  have Pk := fun w h => Lib.hid (kKeeps_any a0 w h)
  obtain ⟨yk, hyk⟩ : ∃ y, keeN a0.data.toList = y := ⟨_, rfl⟩
  rw [hyk] at Pk
  have Pl := fun w h => Lib.hid (kLines_any a0 w h)
  obtain ⟨yl, hyl⟩ : ∃ y, linN a0.data.toList = y := ⟨_, rfl⟩
  rw [hyl] at Pl
  have Pv := fun w h => Lib.hid (kVoid_any a0 w h)
  obtain ⟨yv, hyv⟩ : ∃ y, voiN a0.data.toList = y := ⟨_, rfl⟩
  rw [hyv] at Pv
  rw [hyh, hyk, hyv, hyl] at HAP
  rw [hyv, hyk] at HVO
  rw [hyl] at HLR
  have p1 : ¬ 9223372036854775807 < a0.size + 2 := by omega
  clear hyh hyk hyv hyl hlen
  have k1 : decide ((0 : Int) ≤ yl) = true := decide_eq_true HLR.out.1
  have k2 : decide (yl ≤ 2) = true := decide_eq_true HLR.out.2
  go_enter Try.func5, Try.ntmps5
  go_wp2_with (fail)
  refine (kndAwake_any w HW.out).mono ?_
  rintro e w1 ⟨rfl, c1⟩
  have B1 := Lib.hid c1
  clear c1
  cases yh
  · cases yv
    · go_wp2_with (fail)
      refine (Ph _ (HW.out.below B1.out)).out.mono ?_
      rintro e w2 ⟨rfl, c⟩
      have B2 := Lib.hid (B1.out.trans (c.mono B1.out.size))
      clear c
      go_wp2_with (fail)
      refine (Pv _ (HW.out.below B2.out)).out.mono ?_
      rintro e w3 ⟨rfl, c⟩
      have B3 := Lib.hid (B2.out.trans (c.mono B2.out.size))
      clear c
      go_wp2_with (fail)
      refine (Qh _ (HW.out.below B3.out)).out.mono ?_
      rintro e w4 ⟨rfl, c⟩
      have B4 := Lib.hid (B3.out.trans (c.mono B3.out.size))
      clear c
      go_wp2_with (fail)
      refine (Qk _ (HW.out.below B4.out)).out.mono ?_
      rintro e w5 ⟨rfl, c⟩
      have B5 := Lib.hid (B4.out.trans (c.mono B4.out.size))
      clear c
      go_wp2_with (fail)
      refine (Qv _ (HW.out.below B5.out)).out.mono ?_
      rintro e w6 ⟨rfl, c⟩
      have B6 := Lib.hid (B5.out.trans (c.mono B5.out.size))
      clear c
      go_wp2_with (fail)
      refine (Ql _ (HW.out.below B6.out)).out.mono ?_
      rintro e w7 ⟨rfl, c⟩
      have B7 := Lib.hid (B6.out.trans (c.mono B6.out.size))
      clear c
      go_wp2_with (fail)
      refine (Pl _ (HW.out.below B7.out)).out.mono ?_
      rintro e w8 ⟨rfl, c⟩
      have B8 := Lib.hid (B7.out.trans (c.mono B7.out.size))
      clear c
      go_wp2_with (fail)
      refine (Pl _ (HW.out.below B8.out)).out.mono ?_
      rintro e w9 ⟨rfl, c⟩
      have B9 := Lib.hid (B8.out.trans (c.mono B8.out.size))
      clear c
      go_wp2
      go_ret
      exact ⟨ret_bool (by simp), B9.out⟩
    · obtain rfl : yk = false := HVO.out rfl
      go_wp2_with (fail)
      refine (Ph _ (HW.out.below B1.out)).out.mono ?_
      rintro e w2 ⟨rfl, c⟩
      have B2 := Lib.hid (B1.out.trans (c.mono B1.out.size))
      clear c
      go_wp2_with (fail)
      refine (Pv _ (HW.out.below B2.out)).out.mono ?_
      rintro e w3 ⟨rfl, c⟩
      have B3 := Lib.hid (B2.out.trans (c.mono B2.out.size))
      clear c
      go_wp2_with (fail)
      refine (Pk _ (HW.out.below B3.out)).out.mono ?_
      rintro e w4 ⟨rfl, c⟩
      have B4 := Lib.hid (B3.out.trans (c.mono B3.out.size))
      clear c
      go_wp2_with (fail)
      refine (Qh _ (HW.out.below B4.out)).out.mono ?_
      rintro e w5 ⟨rfl, c⟩
      have B5 := Lib.hid (B4.out.trans (c.mono B4.out.size))
      clear c
      go_wp2_with (fail)
      refine (Qk _ (HW.out.below B5.out)).out.mono ?_
      rintro e w6 ⟨rfl, c⟩
      have B6 := Lib.hid (B5.out.trans (c.mono B5.out.size))
      clear c
      go_wp2_with (fail)
      refine (Qv _ (HW.out.below B6.out)).out.mono ?_
      rintro e w7 ⟨rfl, c⟩
      have B7 := Lib.hid (B6.out.trans (c.mono B6.out.size))
      clear c
      go_wp2_with (fail)
      refine (Ql _ (HW.out.below B7.out)).out.mono ?_
      rintro e w8 ⟨rfl, c⟩
      have B8 := Lib.hid (B7.out.trans (c.mono B7.out.size))
      clear c
      go_wp2_with (fail)
      refine (Pl _ (HW.out.below B8.out)).out.mono ?_
      rintro e w9 ⟨rfl, c⟩
      have B9 := Lib.hid (B8.out.trans (c.mono B8.out.size))
      clear c
      go_wp2_with (fail)
      refine (Pl _ (HW.out.below B9.out)).out.mono ?_
      rintro e w10 ⟨rfl, c⟩
      have B10 := Lib.hid (B9.out.trans (c.mono B9.out.size))
      clear c
      go_wp2
      go_ret
      exact ⟨ret_bool (by simp), B10.out⟩
  · obtain ⟨rfl, rfl, rfl⟩ := HAP.out rfl
    go_wp2_with (fail)
    refine (Ph _ (HW.out.below B1.out)).out.mono ?_
    rintro e w2 ⟨rfl, c⟩
    have B2 := Lib.hid (B1.out.trans (c.mono B1.out.size))
    clear c
    go_wp2_with (fail)
    refine (Pk _ (HW.out.below B2.out)).out.mono ?_
    rintro e w3 ⟨rfl, c⟩
    have B3 := Lib.hid (B2.out.trans (c.mono B2.out.size))
    clear c
    go_wp2_with (fail)
    refine (Pv _ (HW.out.below B3.out)).out.mono ?_
    rintro e w4 ⟨rfl, c⟩
    have B4 := Lib.hid (B3.out.trans (c.mono B3.out.size))
    clear c
    go_wp2_with (fail)
    refine (Pl _ (HW.out.below B4.out)).out.mono ?_
    rintro e w5 ⟨rfl, c⟩
    have B5 := Lib.hid (B4.out.trans (c.mono B4.out.size))
    clear c
    go_wp2_with (fail)
    refine (Pv _ (HW.out.below B5.out)).out.mono ?_
    rintro e w6 ⟨rfl, c⟩
    have B6 := Lib.hid (B5.out.trans (c.mono B5.out.size))
    clear c
    go_wp2_with (fail)
    refine (Qh _ (HW.out.below B6.out)).out.mono ?_
    rintro e w7 ⟨rfl, c⟩
    have B7 := Lib.hid (B6.out.trans (c.mono B6.out.size))
    clear c
    go_wp2_with (fail)
    refine (Qk _ (HW.out.below B7.out)).out.mono ?_
    rintro e w8 ⟨rfl, c⟩
    have B8 := Lib.hid (B7.out.trans (c.mono B7.out.size))
    clear c
    go_wp2_with (fail)
    refine (Qv _ (HW.out.below B8.out)).out.mono ?_
    rintro e w9 ⟨rfl, c⟩
    have B9 := Lib.hid (B8.out.trans (c.mono B8.out.size))
    clear c
    go_wp2_with (fail)
    refine (Ql _ (HW.out.below B9.out)).out.mono ?_
    rintro e w10 ⟨rfl, c⟩
    have B10 := Lib.hid (B9.out.trans (c.mono B9.out.size))
    clear c
    go_wp2_with (fail)
    refine (Pl _ (HW.out.below B10.out)).out.mono ?_
    rintro e w11 ⟨rfl, c⟩
    have B11 := Lib.hid (B10.out.trans (c.mono B10.out.size))
    clear c
    go_wp2_with (fail)
    refine (Pl _ (HW.out.below B11.out)).out.mono ?_
    rintro e w12 ⟨rfl, c⟩
    have B12 := Lib.hid (B11.out.trans (c.mono B11.out.size))
    clear c
    go_wp2
    go_ret
    exact ⟨ret_bool (by simp), B12.out⟩
  -- go_wp2
  -- go_ret
  -- exact ⟨rfl, by repeat (first | exact Grown.refl _ | apply Grown.drew | apply Grown.alloc)⟩

set_option maxRecDepth 100000 in
theorem lifted (os : Os) (started : os.Started) (H : Type) (enc : TypeId × Value → H) :
    ReturnsInHanded {} Try.checked os 5 .any (Rows.kindsApartSpec.pre6 enc Try.prog Try.f5 Rows.kindsApartRow.domain false) (Rows.kindsApartSpec.post enc Try.prog Try.f5 false true false false) := by
  refine returnsInHanded_of_change (C := Try.checked) own started (by kernel_rfl) Try.func5
    (ChangeSpec.witness6 (enc := enc) (C := Try.checked) false ⟨#[], #[.string ByteArray.empty], []⟩ 8 (by kernel_rfl) (by kernel_rfl) (by kernel_rfl) (by kernel_rfl)) ?_
  intro W base args ds gs before hval0 hW hcnd _
  have hval : ∀ (j : Nat) t v, Try.f5.params[j]? = some t → args[j]? = some v → Value.okWide Try.prog W .any base t v := hval0
  have hW' := hW
  obtain ⟨p, q, hA0, hV, rfl, hfz, hnd⟩ := hW
  have hA : DataW.TrodAll enc Try.prog W 0 (fun _ => true) true Try.f5.params.toList args.toList ds p := hA0
  rw [Try.params5] at hA hval
  obtain ⟨v0, vs0, d0, ds0, p0, q0, hargs, rfl, rfl, h0, r0⟩ := trodAll_cons hA
  obtain ⟨rfl, rfl, rfl⟩ := trodAll_nil r0
  obtain rfl : args = #[v0] := by cases args; simp_all
  obtain ⟨rfl, rfl⟩ := trodVars_none hV
  obtain ⟨a0, rfl, rfl, rfl, w0⟩ := open_string Try.underlying9 (hval 0 9 v0 rfl rfl) h0
  clear hA0 hval0
  refine (walk a0 w0 W).mono fun e W' ⟨he, bel⟩ => ?_
  subst he
  exact ⟨_, rfl, _, _, _, [], _, [], hW', trodAll_mk1 (shut_bool Try.underlying4 _), (trodAll_cons_mk (shut_string Try.underlying9 w0) trodAll_mk0), rfl, bel.frame _, fun h => by cases h⟩

theorem over : Rows.kindsApartRow.holds Try.pinned (OpenSpec.ofChange Rows.kindsApartSpec) :=
  OpenClaim.holds_of_wide 5 Try.f5 rfl rfl rfl rfl rfl rfl rfl ⟨rfl, rfl, rfl, rfl, rfl⟩ rfl rfl rfl rfl rfl (by kernel_rfl) Try.func5 (by kernel_rfl)
    (of_decide_eq_true (by kernel_rfl)) (by unfold Func.isWrapper; first | (rw [if_pos (by decide +kernel)]; kernel_rfl) | (rw [if_neg (by decide +kernel)]; exact ⟨rfl, rfl⟩))
    (fun os started H enc _ => lifted os started H enc)

/-- ████ THE STATEMENT ████ -/
theorem proved : Rows.KindsApartSaid :=
  over
end Go.Proofs.Ytoainaihklncoaa.kindsApart
