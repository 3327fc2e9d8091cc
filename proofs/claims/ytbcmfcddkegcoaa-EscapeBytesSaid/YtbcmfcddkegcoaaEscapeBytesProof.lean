/-
  The law EscapeBytes of flail/flaillaw21 answers true for every input, and changes nothing that was there. No condition.
-/
import Derived.Test.YtbcmfcddkegcoaaRows
import Derived.Test.YtbcmfcddkegcoaaEscAwake
import Derived.Test.YtbcmfcddkegcoaaUtfLaws
import Derived.Test.YtbcmfcddkegcoaaLinesCode
import Derived.WalkKit
import Derived.ProofKit
import Derived.ChangeOld
import Derived.Below
import Derived.OpenShut
import Derived.ShutString
namespace Go.Proofs.Ytbcmfcddkegcoaa.escapeBytes
open Go.ChangeShapes Go.WideShapes Go.ChangeAt Go.RowKit
open Go.ChangeMaps (open_string shut_string)
set_option linter.unusedVariables false      -- a walk need not use every 'w<i>' (that an integer argument fits its kind)

theorem own : ownKnob Try.prog.godebug = none := by kernel_rfl

set_option maxRecDepth 100000 in
set_option maxHeartbeats 3000000 in
theorem walk (a0 : Int) (a1 : ByteArray) (w0 : (Lit.int .u8 a0).wf = true) (w1 : a1.size ≤ maxLen) (w : World) :
    Calls Try.prog 5 #[.int .u8 a0, .string a1] w fun e w' => e = .returned (.bool true) ∧ Below w.heap.size w w' := by
  have hb0 : 0 ≤ a0 ∧ a0 ≤ 255 := by simpa [Lit.wf, IntKind.min, IntKind.max, IntKind.signed, IntKind.bits] using w0
  obtain ⟨h00, h01⟩ := hb0
  clear w0 w1
  by_cases hlen : 300 < a1.size
  · go_enter Try.func5, Try.ntmps5
    go_wp2_with (go_at_call 8; refine (escAwake_any w).mono ?_; rintro e w1 ⟨rfl, hb1⟩)
    go_ret
    exact ⟨rfl, hb1⟩
  have hs1 : a1.size ≤ 300 := by omega
  cases hv : Lib.validD a1.data.toList with
  | false =>
    have HV := Lib.hid hv
    clear hv
    go_enter Try.func5, Try.ntmps5
    go_wp2_with (fail)
    refine (escAwake_any w).mono ?_
    rintro e w1 ⟨rfl, c1⟩
    have B1 := Lib.hid c1
    clear c1
    go_wp2_with (fail)
    refine (right_any a1 _).mono ?_
    rintro e w2 ⟨rfl, c2⟩
    rw [HV.out]
    go_wp2
    go_ret
    exact ⟨rfl, B1.out.trans (c2.mono B1.out.size)⟩
  | true =>
    have HV := Lib.hid hv
    obtain ⟨k, hk⟩ : ∃ k : Nat, a0 % 3 = (k : Int) := ⟨(a0 % 3).toNat, by omega⟩
    have hk2 : k ≤ 2 := by omega
    have H1 := fun w => Lib.hid (escEnc_any (k : Int) a1 w (by omega) (by omega))
    obtain ⟨b1, b2, b3, b4⟩ := encD_bytes (k : Int) (by omega) a1.data.toList hv
    have hln := encD_len (k : Int) a1.data.toList
    obtain ⟨T, hT, lT, sT⟩ := named21 (encD (k : Int) a1.data.toList)
    rw [hT] at H1
    rw [← lT] at b1 b2 b3 b4
    rw [← sT, ← Lib.size_eq] at hln
    have hT1 : T.size ≤ 1800 := by omega
    have R1 := fun w => Lib.hid (right_any T w)
    have R3 := fun w => Lib.hid (norm_any T w (by omega))
    have R4 := fun w => Lib.hid (clean_any T w (by omega))
    rw [b1] at R1
    rw [b3, show (⟨T.data.toList.toArray⟩ : ByteArray) = T from str_ext (by rw [List.toList_toArray])] at R3
    rw [b4, show (⟨T.data.toList.toArray⟩ : ByteArray) = T from str_ext (by rw [List.toList_toArray])] at R4
    have HD : Hid ((⟨(dec T.data.toList).toArray⟩ : ByteArray) = T) := Lib.hid (by rw [b2])
    clear hv hT hlen b1 b2 b3 b4 lT sT hln
    have kc := fun (wx : World) (s : ByteArray) => run_bytes_of_string (P := Try.prog) wx 9 28 5 s Try.underlying9 Try.underlying28 Try.underlying5
    go_enter Try.func5, Try.ntmps5
    go_wp2_with (fail)
    refine (escAwake_any w).mono ?_
    rintro e w1 ⟨rfl, c1⟩
    have B1 := Lib.hid c1
    clear c1
    go_wp2_with (fail)
    refine (right_any a1 _).mono ?_
    rintro e w2 ⟨rfl, c2⟩
    rw [HV.out]
    have B2 := Lib.hid (B1.out.trans (c2.mono B1.out.size))
    clear c2
    go_wp2_with (fail)
    refine (H1 _).out.mono ?_
    rintro e w3 ⟨rfl, c3⟩
    have B3 := Lib.hid (B2.out.trans (c3.mono B2.out.size))
    clear c3
    go_wp2_with (fail)
    refine (R1 _).out.mono ?_
    rintro e w4 ⟨rfl, c4⟩
    have B4 := Lib.hid (B3.out.trans (c4.mono B3.out.size))
    clear c4
    go_wp2_with (fail)
    refine (utfDecode_any _ _ _ (isBytes_conv w4 T _ _ rfl (by unfold maxLen; omega)) (by rw [← Lib.size_eq]; omega)).mono ?_
    rintro e w5 ⟨rfl, c5⟩
    rw [HD.out]
    have B5 := Lib.hid (show Below w.heap.size w w5 from (below_conv B4.out B4.out.size _).trans (c5.mono (by have q := B4.out.size; simp; omega)))
    clear c5
    go_wp2_with (fail)
    refine (R3 _).out.mono ?_
    rintro e w6 ⟨rfl, c6⟩
    have B6 := Lib.hid (B5.out.trans (c6.mono B5.out.size))
    clear c6
    go_wp2_with (fail)
    refine (R4 _).out.mono ?_
    rintro e w7 ⟨rfl, c7⟩
    have B7 := Lib.hid (B6.out.trans (c7.mono B6.out.size))
    clear c7
    go_wp2
    go_ret
    exact ⟨ret_bool (by simp), B7.out⟩
  -- go_wp2
  -- go_ret
  -- exact ⟨rfl, by repeat (first | exact Grown.refl _ | apply Grown.drew | apply Grown.alloc)⟩

set_option maxRecDepth 100000 in
theorem lifted (os : Os) (started : os.Started) (H : Type) (enc : TypeId × Value → H) :
    ReturnsInHanded {} Try.checked os 5 .any (Rows.escapeBytesSpec.pre6 enc Try.prog Try.f5 Rows.escapeBytesRow.domain false) (Rows.escapeBytesSpec.post enc Try.prog Try.f5 false true false false) := by
  refine returnsInHanded_of_change (C := Try.checked) own started (by kernel_rfl) Try.func5
    (ChangeSpec.witness6 (enc := enc) (C := Try.checked) false ⟨#[], #[.int .u8 0, .string ByteArray.empty], []⟩ 8 (by kernel_rfl) (by kernel_rfl) (by kernel_rfl) (by kernel_rfl)) ?_
  intro W base args ds gs before hval0 hW hcnd _
  have hval : ∀ (j : Nat) t v, Try.f5.params[j]? = some t → args[j]? = some v → Value.okWide Try.prog W .any base t v := hval0
  have hW' := hW
  obtain ⟨p, q, hA0, hV, rfl, hfz, hnd⟩ := hW
  have hA : DataW.TrodAll enc Try.prog W 0 (fun _ => true) true Try.f5.params.toList args.toList ds p := hA0
  rw [Try.params5] at hA hval
  obtain ⟨v0, vs0, d0, ds0, p0, q0, hargs, rfl, rfl, h0, r0⟩ := trodAll_cons hA
  obtain ⟨v1, vs1, d1, ds1, p1, q1, rfl, rfl, rfl, h1, r1⟩ := trodAll_cons r0
  obtain ⟨rfl, rfl, rfl⟩ := trodAll_nil r1
  obtain rfl : args = #[v0, v1] := by cases args; simp_all
  obtain ⟨rfl, rfl⟩ := trodVars_none hV
  obtain ⟨a0, rfl, rfl, rfl, w0⟩ := open_int Try.underlying5 (hval 0 5 v0 rfl rfl) h0
  obtain ⟨a1, rfl, rfl, rfl, w1⟩ := open_string Try.underlying9 (hval 1 9 v1 rfl rfl) h1
  clear hA0 hval0
  refine (walk a0 a1 w0 w1 W).mono fun e W' ⟨he, bel⟩ => ?_
  subst he
  exact ⟨_, rfl, _, _, _, [], _, [], hW', trodAll_mk1 (shut_bool Try.underlying4 _), (trodAll_cons_mk (shut_int Try.underlying5 w0) (trodAll_cons_mk (shut_string Try.underlying9 w1) trodAll_mk0)), rfl, bel.frame _, fun h => by cases h⟩

theorem over : Rows.escapeBytesRow.holds Try.pinned (OpenSpec.ofChange Rows.escapeBytesSpec) :=
  OpenClaim.holds_of_wide 5 Try.f5 rfl rfl rfl rfl rfl rfl rfl ⟨rfl, rfl, rfl, rfl, rfl⟩ rfl rfl rfl rfl rfl (by kernel_rfl) Try.func5 (by kernel_rfl)
    (of_decide_eq_true (by kernel_rfl)) (by unfold Func.isWrapper; first | (rw [if_pos (by decide +kernel)]; kernel_rfl) | (rw [if_neg (by decide +kernel)]; exact ⟨rfl, rfl⟩))
    (fun os started H enc _ => lifted os started H enc)

/-- ████ THE STATEMENT ████ -/
theorem proved : Rows.EscapeBytesSaid :=
  over
end Go.Proofs.Ytbcmfcddkegcoaa.escapeBytes
