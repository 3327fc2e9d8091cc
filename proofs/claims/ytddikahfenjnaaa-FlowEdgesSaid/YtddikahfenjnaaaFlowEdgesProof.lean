/-
  The law FlowEdges of flail/flaillaw18 answers true for every input, and changes nothing that was there. No condition.
-/
import Derived.Test.YtddikahfenjnaaaRows
import Derived.Test.YtddikahfenjnaaaFloLaw
import Derived.Test.YtddikahfenjnaaaFloFew
import Derived.WalkKit
import Derived.ProofKit
import Derived.OpenShut
import Derived.ShutString
import Derived.ChangeOld
import Derived.Below
namespace Go.Proofs.Ytddikahfenjnaaa.flowEdges
open Go.ChangeShapes Go.WideShapes Go.ChangeAt Go.RowKit
open Go.ChangeMaps (open_string shut_string)
set_option linter.unusedVariables false

theorem own : ownKnob Try.prog.godebug = none := by kernel_rfl
theorem laidOut : laidOutB Try.prog = true := by kernel_rfl

theorem get_at (T : ByteArray) (i : Nat) (h : i < T.size) : T.data.toList[i]'(by rw [← Lib.size_eq]; exact h) = T[i] := rfl
set_option maxRecDepth 100000 in
set_option maxHeartbeats 4000000 in
theorem walk (a0 : Option Addr) (len0 cap0 : Nat) (l0 : List ActP) (w : World) (w0 : IsActs w a0 len0 cap0 l0) :
    Calls Try.prog 4 #[.slice a0 len0 cap0] w fun e w' => e = .returned (.bool true) ∧ Below w.heap.size w w' := by
  have HL := Lib.hid w0
  have hll := w0.1
  have hm := w0.2.2.1
  have hlc := w0.2.1
  unfold maxLen at hm
  clear w0
  go_enter Try.func4, Try.ntmps4
  go_wp2_with (fail)
  refine (floAwake_any w).mono ?_
  rintro e w1 ⟨rfl, c1⟩
  have B1 := Lib.hid c1
  clear c1
  go_wp2_with (fail)
  refine (refFew18_any a0 len0 cap0 l0 w1 (HL.out.below B1.out (Nat.le_refl _))).mono ?_
  rintro e w2 ⟨⟨few, rfl, hfew⟩, c2⟩
  have B2 := Lib.hid (B1.out.trans (c2.mono B1.out.size))
  have HF := Lib.hid hfew
  clear c2 hfew
  cases few
  · go_wp2
    go_ret
    exact ⟨rfl, B2.out⟩
  obtain ⟨h60, h100⟩ := HF.out rfl
  have H100 := Lib.hid h100
  clear h100 HF
  go_wp2_with (fail)
  refine (newM_any w w2 Emp Lies.emp (Made.none B2.out)).mono ?_
  rintro e w3 ⟨g, rfl, m3⟩
  have M3 := Lib.hid m3
  clear m3
  go_wp2
  go_loopw [6] (fun v wr => ∃ i : Nat, v = .int .i64 (i : Int) ∧ i ≤ len0 ∧ Hid (Flo w wr g (actsF flo0 (l0.take i)) Emp)) (fun v _ => len0 - (intOf v).toNat)
  case atStart => exact ⟨0, rfl, Nat.zero_le _, Lib.hid (by rw [List.take_zero]; exact M3.out)⟩
  case round =>
    obtain ⟨i, rfl, hi, HM⟩ := hrel
    by_cases hlt : i < len0
    · have hiL : i < l0.length := by omega
      obtain ⟨x, rfl, xc, xo⟩ := HL.out.2.2.2 i hiL
      obtain ⟨x0, x1, x2, x3⟩ := (xc.below HM.out.bel (Nat.le_refl _)).asked
      have HC := Lib.hid (doesM_any w wr g (actsF flo0 (l0.take i)) Emp Lies.emp HM.out l0[i] (by
        have := acts_few l0 i (by omega) H100.out
        have := H100.out l0[i] (List.getElem_mem hiL)
        omega) xo)
      rw [acts_step flo0 l0 i hiL] at HC
      unfold aggA at HC
      obtain ⟨K, hK⟩ : ∃ K, l0[i].kind = K := ⟨_, rfl⟩
      obtain ⟨S, hS⟩ : ∃ S : ByteArray, (⟨l0[i].s.toArray⟩ : ByteArray) = S := ⟨_, rfl⟩
      obtain ⟨kp, hkp⟩ : ∃ K, l0[i].keep = K := ⟨_, rfl⟩
      obtain ⟨n, hn⟩ : ∃ K, l0[i].n = K := ⟨_, rfl⟩
      rw [hK, hS, hkp, hn] at HC
      rw [hK] at x0
      rw [hS] at x1
      rw [hkp] at x2
      rw [hn] at x3
      clear hK hS hkp hn xc xo
      go_wp2_with (go_at_call 12; refine HC.out.mono ?_; rintro e w5 ⟨rfl, m5⟩)
      go_roundw
      case rel => exact ⟨i + 1, by go_num, by omega, Lib.hid m5⟩
      case measure => simp [intOf]; omega
    · obtain rfl : i = len0 := by omega
      have e1 : l0.take i = l0 := List.take_of_length_le (by omega)
      have hsz := acts_few l0 i (by omega) H100.out
      have HE := edged_acts l0
      rw [e1] at HM hsz
      obtain ⟨F, hF⟩ : ∃ F, actsF flo0 l0 = F := ⟨_, rfl⟩
      rw [hF] at HM hsz HE
      have htl : F.told.length ≤ 12000 := by
        unfold FloP.size at hsz; omega
      have HC := Lib.hid (textM_any w wr g F Emp Lies.emp HM.out (by omega))
      obtain ⟨T, hT⟩ : ∃ T : ByteArray, (⟨F.told.toArray⟩ : ByteArray) = T := ⟨_, rfl⟩
      have hT2 : F.told = T.data.toList := by rw [← hT, List.toList_toArray]
      rw [hT] at HC
      have hts : T.size ≤ 12000 := by rw [Lib.size_eq, ← hT2]; exact htl
      have HE1 := Lib.hid (show ∀ (k : Nat) (h : k < T.size), T[k] ≠ 0 ∧ T[k] ≠ 13 from fun k h => HE.told T[k] (by rw [hT2]; exact List.getElem_mem (by rw [← Lib.size_eq]; exact h)))
      have HE2 := Lib.hid (show ∀ h : 0 < T.size, blkB T[0] = false from fun h => HE.first T[0] (by rw [hT2, List.head?_eq_getElem?, List.getElem?_eq_getElem (by rw [← Lib.size_eq]; exact h)]; rfl))
      have HE3 := Lib.hid (show ∀ (k : Nat) (h : k < T.size), k + 1 = T.size → blkB T[k] = false from fun k h hk => HE.last T[k] (by
        rw [hT2, List.getLast?_eq_getElem?, List.getElem?_eq_getElem (by rw [← Lib.size_eq]; omega)]
        have : T.data.toList.length - 1 = k := by rw [← Lib.size_eq]; omega
        simp only [this]; rfl))
      clear hT hT2 htl hsz hF e1 HE H100 HL
      go_wp2_with (go_at_call 14; refine HC.out.mono ?_; rintro e w6 ⟨rfl, m6⟩; have M6 := Lib.hid m6; clear m6)
      go_loopw [8] (fun v w7 => ∃ j : Nat, v = .int .i64 (j : Int) ∧ j ≤ T.size ∧ w6 = w7) (fun v _ => T.size - (intOf v).toNat)
      case atStart => exact ⟨0, rfl, Nat.zero_le _, rfl⟩
      case round =>
        obtain ⟨j, rfl, hj, rfl⟩ := hrel
        by_cases hjt : j < T.size
        · obtain ⟨z0, z1⟩ := HE1.out j hjt
          have b0 : (((T[j].toNat : Nat) : Int) == 0) = false := by
            rw [show (((T[j].toNat : Nat) : Int) == 0) = (T[j] == 0) from u8_test T[j] 0 (by decide)]
            exact beq_eq_false_iff_ne.2 z0
          have b1 : (((T[j].toNat : Nat) : Int) == 13) = false := by
            rw [show (((T[j].toNat : Nat) : Int) == 13) = (T[j] == 13) from u8_test T[j] 13 (by decide)]
            exact beq_eq_false_iff_ne.2 z1
          clear z0 z1
          go_wp2
          go_roundw
          case rel => exact ⟨j + 1, by go_num, by omega, trivial⟩
          case measure => simp [intOf]; omega
        · obtain rfl : j = T.size := by omega
          by_cases he : T.size = 0
          · have e2 : T.toList.isEmpty = true := by
              rw [ByteArray.toList_eq, List.isEmpty_iff]
              exact List.eq_nil_of_length_eq_zero (by rw [← Lib.size_eq]; exact he)
            have e3 : T.toList = [] := List.isEmpty_iff.1 e2
            go_wp2
            go_ret
            exact ⟨rfl, M6.out.bel⟩
          · have e2 : T.toList.isEmpty = false := by
              cases h : T.toList.isEmpty with
              | false => rfl
              | true =>
                rw [ByteArray.toList_eq, List.isEmpty_iff] at h
                exact absurd (by rw [Lib.size_eq, h]; rfl) he
            have e3 : ¬ T.toList = [] := fun e => by rw [e] at e2; cases e2
            obtain ⟨k, hk⟩ : ∃ k : Nat, (T.size : Int) - 1 = (k : Int) := ⟨T.size - 1, by omega⟩
            have hkt : k < T.size := by omega
            have h0t : 0 < T.size := by omega
            have C1 := fun w => Lib.hid (blank18_any T[0] _ w rfl)
            have C2 := fun w => Lib.hid (blank18_any T[k] _ w rfl)
            rw [HE2.out h0t] at C1
            rw [HE3.out k hkt (by omega)] at C2
            go_wp2_with (fail)
            refine (C1 _).out.mono ?_
            rintro e w8 ⟨rfl, rfl⟩
            go_wp2_with (fail)
            refine (C2 _).out.mono ?_
            rintro e w8 ⟨rfl, rfl⟩
            go_wp2
            go_ret
            exact ⟨rfl, M6.out.bel⟩

set_option maxRecDepth 100000 in
theorem lifted (os : Os) (started : os.Started) (H : Type) (enc : TypeId × Value → H) :
    ReturnsInHanded {} Try.checked os 4 .any (Rows.flowEdgesSpec.pre6 enc Try.prog Try.f4 Rows.flowEdgesRow.domain false) (Rows.flowEdgesSpec.post enc Try.prog Try.f4 false true false false) := by
  refine returnsInHanded_of_change (C := Try.checked) own started (by kernel_rfl) Try.func4
    (ChangeSpec.witness6 (enc := enc) (C := Try.checked) false ⟨#[], #[.slice none 0 0], []⟩ 8 (by kernel_rfl) (by kernel_rfl) (by kernel_rfl) (by kernel_rfl)) ?_
  intro W base args ds gs before hval0 hW hcnd _
  have hval : ∀ (j : Nat) t v, Try.f4.params[j]? = some t → args[j]? = some v → Value.okWide Try.prog W .any base t v := hval0
  have hW' := hW
  obtain ⟨p, q, hA0, hV, rfl, hfz, hnd⟩ := hW
  have hA : DataW.TrodAll enc Try.prog W 0 (fun _ => true) true Try.f4.params.toList args.toList ds p := hA0
  rw [Try.params4] at hA hval
  obtain ⟨v0, vs0, d0, ds0, p0, q0, hargs, rfl, rfl, h0, r0⟩ := trodAll_cons hA
  obtain ⟨rfl, rfl, rfl⟩ := trodAll_nil r0
  obtain rfl : args = #[v0] := by cases args; simp_all
  obtain ⟨rfl, rfl⟩ := trodVars_none hV
  obtain ⟨a0, len0, cap0, rfl⟩ := okWide_slice Try.underlying22 (hval 0 22 v0 rfl rfl)
  have k0 := h0
  have lt0 : ∀ x ∈ p0, x.block < W.heap.size := by obtain ⟨m, hm⟩ := k0; exact DataW.trod_lt m _ _ _ hm
  obtain ⟨l0, w0⟩ : ∃ l, IsActs W a0 len0 cap0 l := by
    obtain ⟨fuel, hf⟩ := h0
    exact isActs_arg (by simp [Value.cells]) hf
  clear hA0 hval0
  refine (walk a0 len0 cap0 l0 W w0).mono fun e W' ⟨he, bel⟩ => ?_
  subst he
  exact ⟨_, rfl, _, _, _, [], _, [], hW', trodAll_mk1 (shut_bool Try.underlying4 _), (trodAll_cons_mk (Below.trod laidOut (by kernel_rfl) (of_decide_eq_true (by kernel_rfl)) k0 bel lt0) trodAll_mk0), rfl, bel.frame _, fun h => by cases h⟩

theorem over : Rows.flowEdgesRow.holds Try.pinned (OpenSpec.ofChange Rows.flowEdgesSpec) :=
  OpenClaim.holds_of_wide 4 Try.f4 rfl rfl rfl rfl rfl rfl rfl ⟨rfl, rfl, rfl, rfl, rfl⟩ rfl rfl rfl rfl rfl (by kernel_rfl) Try.func4 (by kernel_rfl)
    (of_decide_eq_true (by kernel_rfl)) (by unfold Func.isWrapper; first | (rw [if_pos (by decide +kernel)]; kernel_rfl) | (rw [if_neg (by decide +kernel)]; exact ⟨rfl, rfl⟩))
    (fun os started H enc _ => lifted os started H enc)

/-- the statement -/
theorem proved : Rows.FlowEdgesSaid := over
end Go.Proofs.Ytddikahfenjnaaa.flowEdges
