/-
  The law KindsJoins of flail/flaillaw17 answers true for every input, and changes nothing that was there. No condition.
-/
import Derived.Test.YtoainaihklncoaaRows
import Derived.Test.YtoainaihklncoaaKndAwake
import Derived.WalkKit
import Derived.ProofKit
import Derived.ChangeOld
import Derived.Below
import Derived.OpenShut
import Derived.ShutString
namespace Go.Proofs.Ytoainaihklncoaa.kindsJoins
open Go.ChangeShapes Go.WideShapes Go.ChangeAt Go.RowKit
open Go.ChangeMaps (open_string shut_string)
set_option linter.unusedVariables false      -- a walk need not use every 'w<i>' (that an integer argument fits its kind)

theorem own : ownKnob Try.prog.godebug = none := by kernel_rfl

theorem stroke_none (a b : ByteArray) : hidN (a ++ ⟨#[45]⟩ ++ b).data.toList = false ∧ keeN (a ++ ⟨#[45]⟩ ++ b).data.toList = false ∧ voiN (a ++ ⟨#[45]⟩ ++ b).data.toList = false ∧ linN (a ++ ⟨#[45]⟩ ++ b).data.toList = 0 :=
  knd_byte _ 45 (by simp [ByteArray.data_append]) (by decide)
theorem some_text (A : ByteArray) : (A.toList = [] ∧ A.toList.isEmpty = true) ∨ (¬ A.toList = [] ∧ A.toList.isEmpty = false) := by
  cases h : A.toList with
  | nil => exact .inl ⟨rfl, rfl⟩
  | cons c l => exact .inr ⟨by simp, rfl⟩
set_option maxRecDepth 100000 in
set_option maxHeartbeats 8000000 in
theorem walk (a0 : Int) (a1 : Int) (w0 : (Lit.int .u16 a0).wf = true) (w1 : (Lit.int .u16 a1).wf = true) (w : World) :
    Calls Try.prog 6 #[.int .u16 a0, .int .u16 a1] w fun e w' => e = .returned (.bool true) ∧ Below w.heap.size w w' := by
  have hba : 0 ≤ a0 ∧ a0 ≤ 65535 := by simpa [Lit.wf, IntKind.min, IntKind.max, IntKind.signed, IntKind.bits] using w0
  obtain ⟨hba0, hba1⟩ := hba
  have hbb : 0 ≤ a1 ∧ a1 ≤ 65535 := by simpa [Lit.wf, IntKind.min, IntKind.max, IntKind.signed, IntKind.bits] using w1
  obtain ⟨hbb0, hbb1⟩ := hbb
  clear w0 w1
  have HW := Lib.hid (knd_here w)
  skip
  obtain ⟨R, hR⟩ : ∃ R : Nat, a0 % 78 = (R : Int) := ⟨(a0 % 78).toNat, by omega⟩
  have hR2 : R < 78 := by omega
  have hRT : R < nmL17.length := hR2
  have hRC := nm17_cell R hRT
  have hRS := nm17_short _ (List.getElem_mem hRT)
  obtain ⟨nR, hnR⟩ : ∃ n, nmL17[R] = n := ⟨_, rfl⟩
  rw [hnR] at hRC hRS
  obtain ⟨NR, hNR⟩ : ∃ N : ByteArray, (⟨nR.toArray⟩ : ByteArray) = N := ⟨_, rfl⟩
  have hNR2 : NR.data.toList = nR := by rw [← hNR, List.toList_toArray]
  rw [hNR] at hRC
  have hNRs : NR.size ≤ 10 := by rw [Lib.size_eq, hNR2]; exact hRS
  have CR := Lib.hid hRC
  have MR := Lib.hid hNR2
  clear hRC hRS hnR hNR hNR2 hRT
  obtain ⟨S, hS⟩ : ∃ R : Nat, a1 % 78 = (R : Int) := ⟨(a1 % 78).toNat, by omega⟩
  have hS2 : S < 78 := by omega
  have hST : S < nmL17.length := hS2
  have hSC := nm17_cell S hST
  have hSS := nm17_short _ (List.getElem_mem hST)
  obtain ⟨nS, hnS⟩ : ∃ n, nmL17[S] = n := ⟨_, rfl⟩
  rw [hnS] at hSC hSS
  obtain ⟨NS, hNS⟩ : ∃ N : ByteArray, (⟨nS.toArray⟩ : ByteArray) = N := ⟨_, rfl⟩
  have hNS2 : NS.data.toList = nS := by rw [← hNS, List.toList_toArray]
  rw [hNS] at hSC
  have hNSs : NS.size ≤ 10 := by rw [Lib.size_eq, hNS2]; exact hSS
  have CS := Lib.hid hSC
  have MS := Lib.hid hNS2
  clear hSC hSS hnS hNS hNS2 hST
  have HZ := Lib.hid (stroke_none NR NS)
  have Qh := fun w h => Lib.hid (kHides_any (NR ++ ⟨#[45]⟩ ++ NS) w h)
  rw [HZ.out.1] at Qh
  have Qk := fun w h => Lib.hid (kKeeps_any (NR ++ ⟨#[45]⟩ ++ NS) w h)
  rw [HZ.out.2.1] at Qk
  have Ql := fun w h => Lib.hid (kLines_any (NR ++ ⟨#[45]⟩ ++ NS) w h)
  rw [HZ.out.2.2.2] at Ql
  have Qv := fun w h => Lib.hid (kVoid_any (NR ++ ⟨#[45]⟩ ++ NS) w h)
  rw [HZ.out.2.2.1] at Qv
  have HNM := fun w => Lib.hid (refNames17_any w)
  have p1 : ¬ 9223372036854775807 < NR.size + 1 := by omega
  have p2 : ¬ 9223372036854775807 < NR.size + 1 + NS.size := by omega
  go_enter Try.func6, Try.ntmps6
  go_wp2_with (fail)
  refine (kndAwake_any w HW.out).mono ?_
  rintro e w1 ⟨rfl, c1⟩
  have B1 := Lib.hid c1
  clear c1
  go_wp2_with (fail)
  refine (HNM _).out.mono ?_
  rintro e w2 ⟨rfl, hh, c2⟩
  have B2 := Lib.hid (B1.out.trans (c2.mono B1.out.size))
  clear c2
  have hcR : w2.cell? ⟨w1.heap.size, R, none⟩ = some (.string NR) := by rw [cell_of_row _ _ _ _ _ _ hh]; exact CR.out
  have hcS : w2.cell? ⟨w1.heap.size, S, none⟩ = some (.string NS) := by rw [cell_of_row _ _ _ _ _ _ hh]; exact CS.out
  clear hh
  rcases some_text NR with ⟨r1, r2⟩ | ⟨r1, r2⟩
  · go_wp2
    go_ret
    exact ⟨rfl, B2.out⟩
  · rcases some_text NS with ⟨s1, s2⟩ | ⟨s1, s2⟩
    · go_wp2
      go_ret
      exact ⟨rfl, B2.out⟩
    · go_wp2_with (fail)
      refine (Qh _ (HW.out.below B2.out)).out.mono ?_
      rintro e w3 ⟨rfl, c⟩
      have B3 := Lib.hid (B2.out.trans (c.mono B2.out.size))
      clear c
      go_wp2_with (fail)
      refine (Qk _ (HW.out.below B3.out)).out.mono ?_
      rintro e w4 ⟨rfl, c⟩
      have B4 := Lib.hid (B3.out.trans (c.mono B3.out.size))
      clear c
      go_wp2_with (fail)
      refine (Qv _ (HW.out.below B4.out)).out.mono ?_
      rintro e w5 ⟨rfl, c⟩
      have B5 := Lib.hid (B4.out.trans (c.mono B4.out.size))
      clear c
      go_wp2_with (fail)
      refine (Ql _ (HW.out.below B5.out)).out.mono ?_
      rintro e w6 ⟨rfl, c⟩
      have B6 := Lib.hid (B5.out.trans (c.mono B5.out.size))
      clear c
      go_wp2
      go_ret
      exact ⟨ret_bool (by simp), B6.out⟩
  -- go_wp2
  -- go_ret
  -- exact ⟨rfl, by repeat (first | exact Grown.refl _ | apply Grown.drew | apply Grown.alloc)⟩

set_option maxRecDepth 100000 in
theorem lifted (os : Os) (started : os.Started) (H : Type) (enc : TypeId × Value → H) :
    ReturnsInHanded {} Try.checked os 6 .any (Rows.kindsJoinsSpec.pre6 enc Try.prog Try.f6 Rows.kindsJoinsRow.domain false) (Rows.kindsJoinsSpec.post enc Try.prog Try.f6 false true false false) := by
  refine returnsInHanded_of_change (C := Try.checked) own started (by kernel_rfl) Try.func6
    (ChangeSpec.witness6 (enc := enc) (C := Try.checked) false ⟨#[], #[.int .u16 0, .int .u16 0], []⟩ 8 (by kernel_rfl) (by kernel_rfl) (by kernel_rfl) (by kernel_rfl)) ?_
  intro W base args ds gs before hval0 hW hcnd _
  have hval : ∀ (j : Nat) t v, Try.f6.params[j]? = some t → args[j]? = some v → Value.okWide Try.prog W .any base t v := hval0
  have hW' := hW
  obtain ⟨p, q, hA0, hV, rfl, hfz, hnd⟩ := hW
  have hA : DataW.TrodAll enc Try.prog W 0 (fun _ => true) true Try.f6.params.toList args.toList ds p := hA0
  rw [Try.params6] at hA hval
  obtain ⟨v0, vs0, d0, ds0, p0, q0, hargs, rfl, rfl, h0, r0⟩ := trodAll_cons hA
  obtain ⟨v1, vs1, d1, ds1, p1, q1, rfl, rfl, rfl, h1, r1⟩ := trodAll_cons r0
  obtain ⟨rfl, rfl, rfl⟩ := trodAll_nil r1
  obtain rfl : args = #[v0, v1] := by cases args; simp_all
  obtain ⟨rfl, rfl⟩ := trodVars_none hV
  obtain ⟨a0, rfl, rfl, rfl, w0⟩ := open_int Try.underlying25 (hval 0 25 v0 rfl rfl) h0
  obtain ⟨a1, rfl, rfl, rfl, w1⟩ := open_int Try.underlying25 (hval 1 25 v1 rfl rfl) h1
  clear hA0 hval0
  refine (walk a0 a1 w0 w1 W).mono fun e W' ⟨he, bel⟩ => ?_
  subst he
  exact ⟨_, rfl, _, _, _, [], _, [], hW', trodAll_mk1 (shut_bool Try.underlying4 _), (trodAll_cons_mk (shut_int Try.underlying25 w0) (trodAll_cons_mk (shut_int Try.underlying25 w1) trodAll_mk0)), rfl, bel.frame _, fun h => by cases h⟩

theorem over : Rows.kindsJoinsRow.holds Try.pinned (OpenSpec.ofChange Rows.kindsJoinsSpec) :=
  OpenClaim.holds_of_wide 6 Try.f6 rfl rfl rfl rfl rfl rfl rfl ⟨rfl, rfl, rfl, rfl, rfl⟩ rfl rfl rfl rfl rfl (by kernel_rfl) Try.func6 (by kernel_rfl)
    (of_decide_eq_true (by kernel_rfl)) (by unfold Func.isWrapper; first | (rw [if_pos (by decide +kernel)]; kernel_rfl) | (rw [if_neg (by decide +kernel)]; exact ⟨rfl, rfl⟩))
    (fun os started H enc _ => lifted os started H enc)

/-- ████ THE STATEMENT ████ -/
theorem proved : Rows.KindsJoinsSaid :=
  over
end Go.Proofs.Ytoainaihklncoaa.kindsJoins
