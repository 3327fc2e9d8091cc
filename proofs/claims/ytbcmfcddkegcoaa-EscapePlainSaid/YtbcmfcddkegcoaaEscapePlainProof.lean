/-
  The law EscapePlain of flail/flaillaw21 answers true for every input, and changes nothing that was there. No condition.
-/
import Derived.Test.YtbcmfcddkegcoaaRows
import Derived.Test.YtbcmfcddkegcoaaEscAwake
import Derived.WalkKit
import Derived.ProofKit
import Derived.ChangeOld
import Derived.Below
import Derived.OpenShut
import Derived.ShutString
namespace Go.Proofs.Ytbcmfcddkegcoaa.escapePlain
open Go.ChangeShapes Go.WideShapes Go.ChangeAt Go.RowKit
open Go.ChangeMaps (open_string shut_string)
set_option linter.unusedVariables false      -- a walk need not use every 'w<i>' (that an integer argument fits its kind)

theorem own : ownKnob Try.prog.godebug = none := by kernel_rfl

theorem byte_no (c d : UInt8) (h : c ≠ d) : (((c.toNat : Nat) : Int) == (d.toNat : Int)) = false := by
  rw [beq_eq_false_iff_ne]
  intro e
  exact h (UInt8.toNat_inj.1 (by omega))
theorem take_next (s : ByteArray) (i : Nat) (h : i < s.size) : s.data.toList.take (i + 1) = s.data.toList.take i ++ [s[i]] := by
  rw [List.take_succ_eq_append_getElem (by rw [← Lib.size_eq]; exact h)]; rfl
theorem sc_next (s : ByteArray) (i : Nat) (h : i < s.size) (b : Bool) (hp : scP (some false) (s.data.toList.take i) = some b) : scP (some false) (s.data.toList.take (i + 1)) = scB (some b) s[i] := by
  rw [take_next s i h, scP_app, hp]; rfl
set_option maxRecDepth 100000 in
set_option maxHeartbeats 3000000 in
theorem walk (a0 : Int) (a1 : ByteArray) (w0 : (Lit.int .u8 a0).wf = true) (w1 : a1.size ≤ maxLen) (w : World) :
    Calls Try.prog 4 #[.int .u8 a0, .string a1] w fun e w' => e = .returned (.bool true) ∧ Below w.heap.size w w' := by
  have hb0 : 0 ≤ a0 ∧ a0 ≤ 255 := by simpa [Lit.wf, IntKind.min, IntKind.max, IntKind.signed, IntKind.bits] using w0
  obtain ⟨h00, h01⟩ := hb0
  clear w0 w1
  by_cases hlen : 300 < a1.size
  · go_enter Try.func4, Try.ntmps4
    go_wp2_with (go_at_call 8; refine (escAwake_any w).mono ?_; rintro e w1 ⟨rfl, hb1⟩)
    go_ret
    exact ⟨rfl, hb1⟩
  · have hs1 : a1.size ≤ 300 := by omega
    obtain ⟨k, hk⟩ : ∃ k : Nat, a0 % 3 = (k : Int) := ⟨(a0 % 3).toNat, by omega⟩
    have hk2 : k ≤ 2 := by omega
    have H1 := fun w => Lib.hid (escEnc_any (k : Int) a1 w (by omega) (by omega))
    have hpl := encD_plain (k : Int) a1.data.toList
    have hsc := scP_encD (k : Int) a1.data.toList
    have hln := encD_len (k : Int) a1.data.toList
    obtain ⟨T, hT, lT, sT⟩ := named21 (encD (k : Int) a1.data.toList)
    rw [hT] at H1
    rw [← lT] at hpl hsc
    rw [← sT, ← Lib.size_eq] at hln
    have HPL := Lib.hid hpl
    have HSC := Lib.hid hsc
    have hTs : (T.size : Int) ≤ 6 * (a1.size : Int) := by omega
    clear hT hlen hpl hsc hln lT sT
    go_enter Try.func4, Try.ntmps4
    go_wp2_with (fail)
    refine (escAwake_any w).mono ?_
    rintro e w1 ⟨rfl, c1⟩
    have B1 := Lib.hid c1
    clear c1
    go_wp2_with (fail)
    refine (H1 _).out.mono ?_
    rintro e w2 ⟨rfl, c2⟩
    have B2 := Lib.hid (B1.out.trans (c2.mono B1.out.size))
    clear c2
    go_wp2
    go_loopw [7, 8] (fun v7 v8 wr => ∃ (i : Nat) (b : Bool), v8 = .int .i64 (i : Int) ∧ v7 = .bool b ∧ i ≤ T.size ∧ w2 = wr ∧ Hid (scP (some false) (T.data.toList.take i) = some b)) (fun _ v _ => T.size - (intOf v).toNat)
    case atStart => exact ⟨0, false, rfl, rfl, Nat.zero_le _, rfl, Lib.hid rfl⟩
    case round =>
      obtain ⟨i, b, rfl, rfl, hi, rfl, HP⟩ := hrel
      by_cases hlt : i < T.size
      · have hmem : T[i] ∈ T.data.toList := by
          have : T.data.toList[i]'(by rw [← Lib.size_eq]; exact hlt) = T[i] := rfl
          rw [← this]; exact List.getElem_mem _
        have hb := HPL.out _ hmem
        have hn : ∀ d : UInt8, badB d = true → T[i] ≠ d := fun d h1 e => by rw [e, h1] at hb; cases hb
        have e60 : (((T[i].toNat : Nat) : Int) == 60) = false := byte_no _ 60 (hn 60 (by decide))
        have e62 : (((T[i].toNat : Nat) : Int) == 62) = false := byte_no _ 62 (hn 62 (by decide))
        have e34 : (((T[i].toNat : Nat) : Int) == 34) = false := byte_no _ 34 (hn 34 (by decide))
        have e39 : (((T[i].toNat : Nat) : Int) == 39) = false := byte_no _ 39 (hn 39 (by decide))
        have e0 : (((T[i].toNat : Nat) : Int) == 0) = false := byte_no _ 0 (hn 0 (by decide))
        have e13 : (((T[i].toNat : Nat) : Int) == 13) = false := byte_no _ 13 (hn 13 (by decide))
        have HS := Lib.hid (sc_next T i hlt b HP.out)
        obtain ⟨o, ho⟩ := scP_take T.data.toList (i + 1) false HSC.out
        have HO := Lib.hid ho
        clear hmem hb hn ho
        by_cases c38 : T[i] = 38
        · have e38 : (((T[i].toNat : Nat) : Int) == 38) = true := by rw [c38]; rfl
          obtain rfl : b = false := by
            cases b
            · rfl
            · have := HS.out
              rw [HO.out, c38] at this
              exact absurd this (by unfold scB; simp)
          have HN : Hid (scP (some false) (T.data.toList.take (i + 1)) = some true) := Lib.hid (by rw [HS.out, c38]; rfl)
          clear c38
          go_wp2
          go_roundw
          case rel => exact ⟨i + 1, true, by simp, rfl, by omega, trivial, HN⟩
          case measure => simp [intOf]; omega
        · have e38 : (((T[i].toNat : Nat) : Int) == 38) = false := byte_no _ 38 c38
          by_cases c59 : T[i] = 59
          · have e59 : (((T[i].toNat : Nat) : Int) == 59) = true := by rw [c59]; rfl
            have HN : Hid (scP (some false) (T.data.toList.take (i + 1)) = some false) := Lib.hid (by rw [HS.out, c59]; rfl)
            clear c38 c59
            go_wp2
            go_roundw
            case rel => exact ⟨i + 1, false, by simp, rfl, by omega, trivial, HN⟩
            case measure => simp [intOf]; omega
          · have e59 : (((T[i].toNat : Nat) : Int) == 59) = false := byte_no _ 59 c59
            have HN : Hid (scP (some false) (T.data.toList.take (i + 1)) = some b) := Lib.hid (by rw [HS.out]; unfold scB; simp [c38, c59])
            clear c38 c59
            go_wp2
            go_roundw
            case rel => exact ⟨i + 1, b, by simp, rfl, by omega, trivial, HN⟩
            case measure => simp [intOf]; omega
      · obtain rfl : b = false := by
          have := HP.out
          rw [List.take_of_length_le (by rw [← Lib.size_eq]; omega), HSC.out] at this
          exact (Option.some.inj this).symm
        go_wp2
        go_ret
        exact ⟨ret_bool (by simp), B2.out⟩
  -- go_wp2
  -- go_ret
  -- exact ⟨rfl, by repeat (first | exact Grown.refl _ | apply Grown.drew | apply Grown.alloc)⟩

set_option maxRecDepth 100000 in
theorem lifted (os : Os) (started : os.Started) (H : Type) (enc : TypeId × Value → H) :
    ReturnsInHanded {} Try.checked os 4 .any (Rows.escapePlainSpec.pre6 enc Try.prog Try.f4 Rows.escapePlainRow.domain false) (Rows.escapePlainSpec.post enc Try.prog Try.f4 false true false false) := by
  refine returnsInHanded_of_change (C := Try.checked) own started (by kernel_rfl) Try.func4
    (ChangeSpec.witness6 (enc := enc) (C := Try.checked) false ⟨#[], #[.int .u8 0, .string ByteArray.empty], []⟩ 8 (by kernel_rfl) (by kernel_rfl) (by kernel_rfl) (by kernel_rfl)) ?_
  intro W base args ds gs before hval0 hW hcnd _
  have hval : ∀ (j : Nat) t v, Try.f4.params[j]? = some t → args[j]? = some v → Value.okWide Try.prog W .any base t v := hval0
  have hW' := hW
  obtain ⟨p, q, hA0, hV, rfl, hfz, hnd⟩ := hW
  have hA : DataW.TrodAll enc Try.prog W 0 (fun _ => true) true Try.f4.params.toList args.toList ds p := hA0
  rw [Try.params4] at hA hval
  obtain ⟨v0, vs0, d0, ds0, p0, q0, hargs, rfl, rfl, h0, r0⟩ := trodAll_cons hA
  obtain ⟨v1, vs1, d1, ds1, p1, q1, rfl, rfl, rfl, h1, r1⟩ := trodAll_cons r0
  obtain ⟨rfl, rfl, rfl⟩ := trodAll_nil r1
  obtain rfl : args = #[v0, v1] := by cases args; simp_all
  obtain ⟨rfl, rfl⟩ := trodVars_none hV
  obtain ⟨a0, rfl, rfl, rfl, w0⟩ := open_int Try.underlying5 (hval 0 5 v0 rfl rfl) h0
  obtain ⟨a1, rfl, rfl, rfl, w1⟩ := open_string Try.underlying9 (hval 1 9 v1 rfl rfl) h1
  clear hA0 hval0
  refine (walk a0 a1 w0 w1 W).mono fun e W' ⟨he, bel⟩ => ?_
  subst he
  exact ⟨_, rfl, _, _, _, [], _, [], hW', trodAll_mk1 (shut_bool Try.underlying4 _), (trodAll_cons_mk (shut_int Try.underlying5 w0) (trodAll_cons_mk (shut_string Try.underlying9 w1) trodAll_mk0)), rfl, bel.frame _, fun h => by cases h⟩

theorem over : Rows.escapePlainRow.holds Try.pinned (OpenSpec.ofChange Rows.escapePlainSpec) :=
  OpenClaim.holds_of_wide 4 Try.f4 rfl rfl rfl rfl rfl rfl rfl ⟨rfl, rfl, rfl, rfl, rfl⟩ rfl rfl rfl rfl rfl (by kernel_rfl) Try.func4 (by kernel_rfl)
    (of_decide_eq_true (by kernel_rfl)) (by unfold Func.isWrapper; first | (rw [if_pos (by decide +kernel)]; kernel_rfl) | (rw [if_neg (by decide +kernel)]; exact ⟨rfl, rfl⟩))
    (fun os started H enc _ => lifted os started H enc)

/-- ████ THE STATEMENT ████ -/
theorem proved : Rows.EscapePlainSaid :=
  over
end Go.Proofs.Ytbcmfcddkegcoaa.escapePlain
