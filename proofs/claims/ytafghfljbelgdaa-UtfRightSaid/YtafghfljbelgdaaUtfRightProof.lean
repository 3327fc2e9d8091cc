/-
  The law UtfRight of flail/flaillaw01 answers true for every input, and changes nothing that was there. No condition.
-/
import Derived.Test.YtafghfljbelgdaaRows
import Derived.Test.YtafghfljbelgdaaUtfRow
import Derived.WalkKit
import Derived.ProofKit
import Derived.OpenShut
import Derived.ShutString
import Derived.ChangeOld
import Derived.Below
namespace Go.Proofs.Ytafghfljbelgdaa.utfRight
open Go.ChangeShapes Go.WideShapes Go.ChangeAt Go.RowKit
open Go.ChangeMaps (open_string shut_string)
set_option linter.unusedVariables false

theorem own : ownKnob Try.prog.godebug = none := by kernel_rfl
theorem laidOut : laidOutB Try.prog = true := by kernel_rfl

/-- WHAT THE WALK IS TOLD OF A SLICE OF INTEGERS THAT CAME IN: it is nil; or it leads to a row of 'cap' cells, the numbers 'zs' (the first 'len' are its elements, the rest its spare room), each fitting its kind. -/
def IsRow (k : IntKind) (w : World) (a : Option Addr) (len cap : Nat) (zs : List Int) : Prop :=
  (a = none ∧ len = 0 ∧ cap = 0 ∧ zs = []) ∨
  ∃ x, a = some x ∧ len ≤ cap ∧ cap ≤ maxLen ∧ zs.length = cap ∧ (∀ i, i < zs.length → w.cell? (x.add i) = some (.int k (zs.getD i 0))) ∧ ∀ n ∈ zs, (Lit.int k n).wf = true

set_option maxRecDepth 100000 in
set_option maxHeartbeats 1000000 in
theorem walk (a0 : Option Addr) (len0 cap0 : Nat) (z0 : List Int) (w : World) (w0 : IsRow .u8 w a0 len0 cap0 z0) :
    Calls Try.prog 5 #[.slice a0 len0 cap0] w fun e w' => e = .returned (.bool true) ∧ Below w.heap.size w w' := by
  obtain ⟨l, hl, hb⟩ := isBytes_row w0
  clear w0
  by_cases hlen : 300 < len0
  · have Hb := Lib.hid hb
    clear hb hl
    go_enter Try.func5, Try.ntmps5
    go_wp2_with (go_at_call 10; refine (awake_any w).mono ?_; rintro e w1 ⟨rfl, hb1⟩)
    go_ret
    exact ⟨rfl, hb1⟩
  · have hlen' : len0 ≤ 300 := by omega
    obtain ⟨D, hD, lD, sD⟩ := named (dec l)
    have HD := Lib.hid hD
    clear hD
    go_enter Try.func5, Try.ntmps5
    go_wp2_with (fail)
    refine (awake_any w).mono ?_
    rintro e w1 ⟨rfl, hb1⟩
    have hs1 := hb1.size
    go_wp2_with (fail)
    refine (decode_any _ l _ (hb.kept hb1) (by omega)).mono ?_
    rintro e w2 ⟨rfl, hb2⟩
    rw [HD.out]
    have hs2 := hb2.size
    have B2 : Below w.heap.size w w2 := hb1.trans (hb2.mono hs1)
    have hsz : ((D.size : Int) ≤ 3 * (len0 : Int)) := by have := dec_len l; rw [sD]; omega
    have HV : Hid (Lib.validD D.data.toList = true) := Lib.hid (by rw [lD, dec_valid])
    obtain ⟨L, hL, lL, sL⟩ := named l
    have HL := Lib.hid hL
    clear hL sL sD
    cases hv : Lib.validD l with
    | false =>
      have HVl : Hid (Lib.validD L.data.toList = false) := Lib.hid (by rw [lL, hv])
      have hne : (D.toList == L.toList) = false := by rw [str_beq, lD, lL]; simp; exact dec_ne l hv
      clear hv lD lL
      go_wp2_with (fail)
      refine (right_any D _).mono ?_
      rintro e w3 ⟨rfl, hb3⟩
      rw [HV.out]
      have hs3 := hb3.size
      have B3 : Below w.heap.size w w3 := B2.trans (hb3.mono (by omega))
      have hcv := hb.conv_kept B3
      rw [HL.out] at hcv
      go_wp2_with (fail)
      refine (right_any L _).mono ?_
      rintro e w4 ⟨rfl, hb4⟩
      rw [HVl.out]
      have B4 : Below w.heap.size w w4 := B3.trans (hb4.mono (by omega))
      have hcv4 := hb.conv_kept B4
      rw [HL.out] at hcv4
      go_wp2
      go_ret
      exact ⟨rfl, B4⟩
    | true =>
      have HVl : Hid (Lib.validD L.data.toList = true) := Lib.hid (by rw [lL, hv])
      cases hm : Lib.hasPrefix l markL with
      | false =>
        have HM : Hid (Lib.hasPrefix L.data.toList (ByteArray.mk #[239, 187, 191]).data.toList = false) := Lib.hid (by rw [lL]; exact hm)
        have he : (D.toList == L.toList) = true := by rw [str_beq, lD, lL]; simp; exact dec_right l hv hm
        clear hv lD lL hm
        go_wp2_with (fail)
        refine (right_any D _).mono ?_
        rintro e w3 ⟨rfl, hb3⟩
        rw [HV.out]
        have hs3 := hb3.size
        have B3 : Below w.heap.size w w3 := B2.trans (hb3.mono (by omega))
        have hcv := hb.conv_kept B3
        rw [HL.out] at hcv
        go_wp2_with (fail)
        refine (right_any L _).mono ?_
        rintro e w4 ⟨rfl, hb4⟩
        rw [HVl.out]
        have B4 : Below w.heap.size w w4 := B3.trans (hb4.mono (by omega))
        have hcv4 := hb.conv_kept B4
        rw [HL.out] at hcv4
        go_wp2_with (fail)
        refine (begins_any L _ _).mono ?_
        rintro e w5 ⟨rfl, rfl⟩
        rw [HM.out]
        go_wp2
        go_ret
        exact ⟨rfl, B4⟩
      | true =>
        have HM : Hid (Lib.hasPrefix L.data.toList (ByteArray.mk #[239, 187, 191]).data.toList = true) := Lib.hid (by rw [lL]; exact hm)
        obtain ⟨L3, hL3, lL3, sL3⟩ := named (l.drop 3)
        have HL3 := Lib.hid hL3
        have he : (D.toList == L3.toList) = true := by rw [str_beq, lD, lL3]; simp; exact dec_right_mark l hv hm
        have hl3 : 3 ≤ len0 := by
          obtain ⟨t, ht⟩ := (hasMark l).1 hm
          rw [← hl, ht]; simp [markL]
        clear hv lD lL hm hL3 lL3 sL3
        go_wp2_with (fail)
        refine (right_any D _).mono ?_
        rintro e w3 ⟨rfl, hb3⟩
        rw [HV.out]
        have hs3 := hb3.size
        have B3 : Below w.heap.size w w3 := B2.trans (hb3.mono (by omega))
        have hcv := hb.conv_kept B3
        rw [HL.out] at hcv
        go_wp2_with (fail)
        refine (right_any L _).mono ?_
        rintro e w4 ⟨rfl, hb4⟩
        rw [HVl.out]
        have B4 : Below w.heap.size w w4 := B3.trans (hb4.mono (by omega))
        have hcv4 := hb.conv_kept B4
        rw [HL.out] at hcv4
        go_wp2_with (fail)
        refine (begins_any L _ _).mono ?_
        rintro e w5 ⟨rfl, rfl⟩
        rw [HM.out]
        have hb4' := hb.kept B4
        have hcap := hb4'.cap
        by_cases hc : cap0 = 3
        · obtain rfl : cap0 = 3 := hc
          obtain rfl : len0 = 3 := by omega
          have hl' : l.drop 3 = [] := List.drop_eq_nil_of_le (by omega)
          have hcv5 := hb4'.none_left.conv
          rw [← hl', HL3.out] at hcv5
          clear hcap hl' hb4' hb hl
          go_wp2
          go_ret
          exact ⟨rfl, B4⟩
        · have hcv5 := (hb4'.cut 3 (by omega) hl3 hc).conv
          rw [HL3.out] at hcv5
          clear hcap hb4' hb hl
          go_wp2
          go_ret
          exact ⟨rfl, B4⟩

set_option maxRecDepth 100000 in
theorem lifted (os : Os) (started : os.Started) (H : Type) (enc : TypeId × Value → H) :
    ReturnsInHanded {} Try.checked os 5 .any (Rows.utfRightSpec.pre6 enc Try.prog Try.f5 Rows.utfRightRow.domain false) (Rows.utfRightSpec.post enc Try.prog Try.f5 false true false false) := by
  refine returnsInHanded_of_change (C := Try.checked) own started (by kernel_rfl) Try.func5
    (ChangeSpec.witness6 (enc := enc) (C := Try.checked) false ⟨#[], #[.slice none 0 0], []⟩ 8 (by kernel_rfl) (by kernel_rfl) (by kernel_rfl) (by kernel_rfl)) ?_
  intro W base args ds gs before hval0 hW hcnd _
  have hval : ∀ (j : Nat) t v, Try.f5.params[j]? = some t → args[j]? = some v → Value.okWide Try.prog W .any base t v := hval0
  have hW' := hW
  obtain ⟨p, q, hA0, hV, rfl, hfz, hnd⟩ := hW
  have hA : DataW.TrodAll enc Try.prog W 0 (fun _ => true) true Try.f5.params.toList args.toList ds p := hA0
  rw [Try.params5] at hA hval
  obtain ⟨v0, vs0, d0, ds0, p0, q0, hargs, rfl, rfl, h0, r0⟩ := trodAll_cons hA
  obtain ⟨rfl, rfl, rfl⟩ := trodAll_nil r0
  obtain rfl : args = #[v0] := by cases args; simp_all
  obtain ⟨rfl, rfl⟩ := trodVars_none hV
  obtain ⟨a0, len0, cap0, rfl⟩ := okWide_slice Try.underlying22 (hval 0 22 v0 rfl rfl)
  have k0 := h0
  have lt0 : ∀ x ∈ p0, x.block < W.heap.size := by obtain ⟨m, hm⟩ := k0; exact DataW.trod_lt m _ _ _ hm
  obtain ⟨z0, w0⟩ : ∃ zs, IsRow .u8 W a0 len0 cap0 zs := by
    obtain ⟨fuel, hf⟩ := h0
    rcases open_ints Try.underlying22 Try.underlying5 (by kernel_rfl) hf with ⟨hcs, _⟩ | ⟨x, l, c, zs, hcs, _, hl, hm, hz, _, hcell, hwz⟩
    · simp [Value.cells] at hcs
      obtain ⟨rfl, rfl, rfl⟩ := hcs
      exact ⟨[], .inl ⟨rfl, rfl, rfl, rfl⟩⟩
    · simp [Value.cells] at hcs
      obtain ⟨rfl, rfl, rfl⟩ := hcs
      exact ⟨zs, .inr ⟨_, rfl, hl, hm, by simpa using hz, hcell, hwz⟩⟩
  clear hA0 hval0
  refine (walk a0 len0 cap0 z0 W w0).mono fun e W' ⟨he, bel⟩ => ?_
  subst he
  exact ⟨_, rfl, _, _, _, [], _, [], hW', trodAll_mk1 (shut_bool Try.underlying4 _), (trodAll_cons_mk (Below.trod laidOut (by kernel_rfl) (of_decide_eq_true (by kernel_rfl)) k0 bel lt0) trodAll_mk0), rfl, bel.frame _, fun h => by cases h⟩

theorem over : Rows.utfRightRow.holds Try.pinned (OpenSpec.ofChange Rows.utfRightSpec) :=
  OpenClaim.holds_of_wide 5 Try.f5 rfl rfl rfl rfl rfl rfl rfl ⟨rfl, rfl, rfl, rfl, rfl⟩ rfl rfl rfl rfl rfl (by kernel_rfl) Try.func5 (by kernel_rfl)
    (of_decide_eq_true (by kernel_rfl)) (by unfold Func.isWrapper; first | (rw [if_pos (by decide +kernel)]; kernel_rfl) | (rw [if_neg (by decide +kernel)]; exact ⟨rfl, rfl⟩))
    (fun os started H enc _ => lifted os started H enc)

/-- ████ THE STATEMENT ████ -/
theorem proved : Rows.UtfRightSaid := over
end Go.Proofs.Ytafghfljbelgdaa.utfRight
