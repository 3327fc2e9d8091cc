/-
  The law KindsCase of flail/flaillaw17 answers true for every input, and changes nothing that was there. No condition.
-/
import Derived.Test.YtoainaihklncoaaRows
import Derived.Test.YtoainaihklncoaaKndAwake
import Derived.WalkKit
import Derived.ProofKit
import Derived.ChangeOld
import Derived.Below
import Derived.OpenShut
import Derived.ShutString
namespace Go.Proofs.Ytoainaihklncoaa.kindsCase
open Go.ChangeShapes Go.WideShapes Go.ChangeAt Go.RowKit
open Go.ChangeMaps (open_string shut_string)
set_option linter.unusedVariables false      -- a walk need not use every 'w<i>' (that an integer argument fits its kind)

theorem own : ownKnob Try.prog.godebug = none := by kernel_rfl

theorem one_byte17 (w : World) (q : Int) (c : UInt8) (h : (c.toNat : Int) = q) :
    (convert 30 9 (.slice (some ⟨w.heap.size, 0, none⟩) 1 1)).run Try.prog (w.alloc (.cells #[.int .u8 q] 5)) = .ok (.string ⟨#[c]⟩) (w.alloc (.cells #[.int .u8 q] 5)) := by
  refine run_convert_bytes_back (P := Try.prog) _ 30 9 5 ⟨w.heap.size, 0, none⟩ 1 [c] Try.underlying30 Try.underlying5 Try.underlying9 ?_
  intro j hj
  have : j = 0 := by simp at hj; exact hj
  subst this
  rw [show ((⟨w.heap.size, 0, none⟩ : Addr).add 0) = ⟨w.heap.size, 0, none⟩ from rfl, Lib.cell_of_heap (heap_alloc_new w _), ← h]
  rfl
theorem some_text (A : ByteArray) : (A.toList = [] ∧ A.toList.isEmpty = true) ∨ (¬ A.toList = [] ∧ A.toList.isEmpty = false) := by
  cases h : A.toList with
  | nil => exact .inl ⟨rfl, rfl⟩
  | cons c l => exact .inr ⟨by simp, rfl⟩
theorem large_none (a b : ByteArray) (c : UInt8) (h : 65 ≤ c.toNat ∧ c.toNat ≤ 90) : hidN (a ++ ⟨#[c]⟩ ++ b).data.toList = false ∧ keeN (a ++ ⟨#[c]⟩ ++ b).data.toList = false ∧ voiN (a ++ ⟨#[c]⟩ ++ b).data.toList = false ∧ linN (a ++ ⟨#[c]⟩ ++ b).data.toList = 0 :=
  knd_byte _ c (by simp [ByteArray.data_append]) (by omega)
set_option maxRecDepth 100000 in
set_option maxHeartbeats 8000000 in
theorem walk (a0 : Int) (a1 : Int) (w0 : (Lit.int .u16 a0).wf = true) (w1 : (Lit.int .u8 a1).wf = true) (w : World) :
    Calls Try.prog 7 #[.int .u16 a0, .int .u8 a1] w fun e w' => e = .returned (.bool true) ∧ Below w.heap.size w w' := by
  have hba : 0 ≤ a0 ∧ a0 ≤ 65535 := by simpa [Lit.wf, IntKind.min, IntKind.max, IntKind.signed, IntKind.bits] using w0
  obtain ⟨hba0, hba1⟩ := hba
  have hbb : 0 ≤ a1 ∧ a1 ≤ 255 := by simpa [Lit.wf, IntKind.min, IntKind.max, IntKind.signed, IntKind.bits] using w1
  obtain ⟨hbb0, hbb1⟩ := hbb
  clear w0 w1
  have HW := Lib.hid (knd_here w)
  skip
  obtain ⟨R, hR⟩ : ∃ R : Nat, a0 % 78 = (R : Int) := ⟨(a0 % 78).toNat, by omega⟩
  have hR2 : R < 78 := by omega
  have hRT : R < nmL17.length := hR2
  have hRC := nm17_cell R hRT
  have hRS := nm17_short _ (List.getElem_mem hRT)
  obtain ⟨nR, hnR⟩ : ∃ n, nmL17[R] = n := ⟨_, rfl⟩
  rw [hnR] at hRC hRS
  obtain ⟨NR, hNR⟩ : ∃ N : ByteArray, (⟨nR.toArray⟩ : ByteArray) = N := ⟨_, rfl⟩
  have hNR2 : NR.data.toList = nR := by rw [← hNR, List.toList_toArray]
  rw [hNR] at hRC
  have hNRs : NR.size ≤ 10 := by rw [Lib.size_eq, hNR2]; exact hRS
  have CR := Lib.hid hRC
  have MR := Lib.hid hNR2
  clear hRC hRS hnR hNR hNR2 hRT
  have HNM := fun w => Lib.hid (refNames17_any w)
  go_enter Try.func7, Try.ntmps7
  go_wp2_with (fail)
  refine (kndAwake_any w HW.out).mono ?_
  rintro e w1 ⟨rfl, c1⟩
  have B1 := Lib.hid c1
  clear c1
  go_wp2_with (fail)
  refine (HNM _).out.mono ?_
  rintro e w2 ⟨rfl, hh, c2⟩
  have B2 := Lib.hid (B1.out.trans (c2.mono B1.out.size))
  clear c2
  have hcR : w2.cell? ⟨w1.heap.size, R, none⟩ = some (.string NR) := by rw [cell_of_row _ _ _ _ _ _ hh]; exact CR.out
  clear hh
  rcases some_text NR with ⟨r1, r2⟩ | ⟨r1, r2⟩
  · go_wp2
    go_ret
    exact ⟨rfl, B2.out⟩
  · have hn0 : 0 < NR.size := Nat.pos_of_ne_zero fun e => r1 (by rw [ByteArray.toList_eq]; exact List.eq_nil_of_length_eq_zero (by rw [← Lib.size_eq]; exact e))
    obtain ⟨k, hk⟩ : ∃ k : Nat, a1 % (NR.size : Int) = (k : Int) := ⟨(a1 % (NR.size : Int)).toNat, by rw [Int.toNat_of_nonneg (Int.emod_nonneg _ (by omega))]⟩
    have hk2 : k < NR.size := by
      have := Int.emod_lt_of_pos a1 (show (0 : Int) < (NR.size : Int) by omega)
      omega
    by_cases c1 : ((NR[k].toNat : Nat) : Int) < 97
    · have b1 : decide (((NR[k].toNat : Nat) : Int) < 97) = true := decide_eq_true c1
      go_wp2
      go_ret
      exact ⟨rfl, B2.out⟩
    · have b1 : decide (((NR[k].toNat : Nat) : Int) < 97) = false := decide_eq_false c1
      by_cases c2 : (122 : Int) < ((NR[k].toNat : Nat) : Int)
      · have b2 : decide ((122 : Int) < ((NR[k].toNat : Nat) : Int)) = true := decide_eq_true c2
        go_wp2
        go_ret
        exact ⟨rfl, B2.out⟩
      · have b2 : decide ((122 : Int) < ((NR[k].toNat : Nat) : Int)) = false := decide_eq_false c2
        obtain ⟨C, hC⟩ : ∃ C : UInt8, (C.toNat : Int) = ((NR[k].toNat : Nat) : Int) - 32 := ⟨UInt8.ofNat (NR[k].toNat - 32), by
          rw [UInt8.toNat_ofNat']; omega⟩
        have hw : IntKind.u8.wrap (((NR[k].toNat : Nat) : Int) - 32) = ((NR[k].toNat : Nat) : Int) - 32 := by
          rw [IntKind.wrap_u8]; omega
        have HZ := Lib.hid (large_none (NR.extract 0 k) (NR.extract (k + 1) NR.size) C (by omega))
        have Qh := fun w h => Lib.hid (kHides_any (NR.extract 0 k ++ ⟨#[C]⟩ ++ NR.extract (k + 1) NR.size) w h)
        rw [HZ.out.1] at Qh
        have Qk := fun w h => Lib.hid (kKeeps_any (NR.extract 0 k ++ ⟨#[C]⟩ ++ NR.extract (k + 1) NR.size) w h)
        rw [HZ.out.2.1] at Qk
        have Ql := fun w h => Lib.hid (kLines_any (NR.extract 0 k ++ ⟨#[C]⟩ ++ NR.extract (k + 1) NR.size) w h)
        rw [HZ.out.2.2.2] at Ql
        have Qv := fun w h => Lib.hid (kVoid_any (NR.extract 0 k ++ ⟨#[C]⟩ ++ NR.extract (k + 1) NR.size) w h)
        rw [HZ.out.2.2.1] at Qv
        have HC := Lib.hid hC
        have hone : (convert 30 9 (.slice (some ⟨w2.heap.size, 0, none⟩) 1 1)).run Try.prog ((w2.alloc (.cells #[.int .u8 (((NR[k].toNat : Nat) : Int) - 32)] 5)).drew) = .ok (.string ⟨#[C]⟩) ((w2.alloc (.cells #[.int .u8 (((NR[k].toNat : Nat) : Int) - 32)] 5)).drew) := one_byte17 w2.drew _ C hC
        have g1 : ¬ 9223372036854775807 < (NR.extract 0 k).size + 1 := by rw [ByteArray.size_extract]; omega
        have i1 : (k : Int) + 1 ≤ (NR.size : Int) := by omega
        have i2 : (0 : Int) ≤ (k : Int) + 1 := by omega
        have i3 : IntKind.i64.wrap ((k : Int) + 1) = (k : Int) + 1 := by rw [IntKind.wrap_i64]; omega
        have i4 : ((k : Int) + 1).toNat = k + 1 := by omega
        have i5 : (k : Int) ≤ (NR.size : Int) := by omega
        have g3 : ¬ 9223372036854775807 < (NR.extract 0 k).size + 1 + (NR.extract (k + 1) NR.size).size := by rw [ByteArray.size_extract, ByteArray.size_extract]; omega
        have g4 : ¬ 9223372036854775807 < (NR.extract 0 k ++ ⟨#[C]⟩).size + (NR.extract (k + 1) NR.size).size := by rw [ByteArray.size_append, ByteArray.size_extract, ByteArray.size_extract, show (ByteArray.mk #[C]).size = 1 from rfl]; omega
        have g5 : ¬ 9223372036854775807 < (NR.extract 0 k).size + (ByteArray.mk #[C]).size := by rw [ByteArray.size_extract, show (ByteArray.mk #[C]).size = 1 from rfl]; omega
        clear hC c1 c2
        go_wp2
        go_region_with (fail)
        have B3 := Lib.hid ((B2.out.alloc B2.out.size (.cells #[.int .u8 (((NR[k].toNat : Nat) : Int) - 32)] 5)).drew)
        clear hone
        go_wp2_with (fail)
        refine (Qh _ (HW.out.below B3.out)).out.mono ?_
        rintro e w4 ⟨rfl, c⟩
        have B4 := Lib.hid (B3.out.trans (c.mono B3.out.size))
        clear c
        go_wp2_with (fail)
        refine (Qk _ (HW.out.below B4.out)).out.mono ?_
        rintro e w5 ⟨rfl, c⟩
        have B5 := Lib.hid (B4.out.trans (c.mono B4.out.size))
        clear c
        go_wp2_with (fail)
        refine (Qv _ (HW.out.below B5.out)).out.mono ?_
        rintro e w6 ⟨rfl, c⟩
        have B6 := Lib.hid (B5.out.trans (c.mono B5.out.size))
        clear c
        go_wp2_with (fail)
        refine (Ql _ (HW.out.below B6.out)).out.mono ?_
        rintro e w7 ⟨rfl, c⟩
        have B7 := Lib.hid (B6.out.trans (c.mono B6.out.size))
        clear c
        go_wp2
        go_ret
        exact ⟨ret_bool (by simp), B7.out⟩
  -- go_wp2
  -- go_ret
  -- exact ⟨rfl, by repeat (first | exact Grown.refl _ | apply Grown.drew | apply Grown.alloc)⟩

set_option maxRecDepth 100000 in
theorem lifted (os : Os) (started : os.Started) (H : Type) (enc : TypeId × Value → H) :
    ReturnsInHanded {} Try.checked os 7 .any (Rows.kindsCaseSpec.pre6 enc Try.prog Try.f7 Rows.kindsCaseRow.domain false) (Rows.kindsCaseSpec.post enc Try.prog Try.f7 false true false false) := by
  refine returnsInHanded_of_change (C := Try.checked) own started (by kernel_rfl) Try.func7
    (ChangeSpec.witness6 (enc := enc) (C := Try.checked) false ⟨#[], #[.int .u16 0, .int .u8 0], []⟩ 8 (by kernel_rfl) (by kernel_rfl) (by kernel_rfl) (by kernel_rfl)) ?_
  intro W base args ds gs before hval0 hW hcnd _
  have hval : ∀ (j : Nat) t v, Try.f7.params[j]? = some t → args[j]? = some v → Value.okWide Try.prog W .any base t v := hval0
  have hW' := hW
  obtain ⟨p, q, hA0, hV, rfl, hfz, hnd⟩ := hW
  have hA : DataW.TrodAll enc Try.prog W 0 (fun _ => true) true Try.f7.params.toList args.toList ds p := hA0
  rw [Try.params7] at hA hval
  obtain ⟨v0, vs0, d0, ds0, p0, q0, hargs, rfl, rfl, h0, r0⟩ := trodAll_cons hA
  obtain ⟨v1, vs1, d1, ds1, p1, q1, rfl, rfl, rfl, h1, r1⟩ := trodAll_cons r0
  obtain ⟨rfl, rfl, rfl⟩ := trodAll_nil r1
  obtain rfl : args = #[v0, v1] := by cases args; simp_all
  obtain ⟨rfl, rfl⟩ := trodVars_none hV
  obtain ⟨a0, rfl, rfl, rfl, w0⟩ := open_int Try.underlying25 (hval 0 25 v0 rfl rfl) h0
  obtain ⟨a1, rfl, rfl, rfl, w1⟩ := open_int Try.underlying5 (hval 1 5 v1 rfl rfl) h1
  clear hA0 hval0
  refine (walk a0 a1 w0 w1 W).mono fun e W' ⟨he, bel⟩ => ?_
  subst he
  exact ⟨_, rfl, _, _, _, [], _, [], hW', trodAll_mk1 (shut_bool Try.underlying4 _), (trodAll_cons_mk (shut_int Try.underlying25 w0) (trodAll_cons_mk (shut_int Try.underlying5 w1) trodAll_mk0)), rfl, bel.frame _, fun h => by cases h⟩

theorem over : Rows.kindsCaseRow.holds Try.pinned (OpenSpec.ofChange Rows.kindsCaseSpec) :=
  OpenClaim.holds_of_wide 7 Try.f7 rfl rfl rfl rfl rfl rfl rfl ⟨rfl, rfl, rfl, rfl, rfl⟩ rfl rfl rfl rfl rfl (by kernel_rfl) Try.func7 (by kernel_rfl)
    (of_decide_eq_true (by kernel_rfl)) (by unfold Func.isWrapper; first | (rw [if_pos (by decide +kernel)]; kernel_rfl) | (rw [if_neg (by decide +kernel)]; exact ⟨rfl, rfl⟩))
    (fun os started H enc _ => lifted os started H enc)

/-- ████ THE STATEMENT ████ -/
theorem proved : Rows.KindsCaseSaid :=
  over
end Go.Proofs.Ytoainaihklncoaa.kindsCase
