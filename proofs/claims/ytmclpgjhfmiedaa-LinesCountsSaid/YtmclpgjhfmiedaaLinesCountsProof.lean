/-
  The law LinesCounts of flail/flaillaw02 answers true for every input, and changes nothing that was there. No condition.
-/
import Derived.Test.YtmclpgjhfmiedaaRows
import Derived.Test.YtmclpgjhfmiedaaLinesCnt
import Derived.WalkKit
import Derived.ProofKit
import Derived.ChangeOld
import Derived.Below
import Derived.OpenShut
import Derived.ShutString
namespace Go.Proofs.Ytmclpgjhfmiedaa.linesCounts
open Go.ChangeShapes Go.WideShapes Go.ChangeAt Go.RowKit
open Go.ChangeMaps (open_string shut_string)
set_option linter.unusedVariables false      -- a walk need not use every 'w<i>' (that an integer argument fits its kind)

theorem own : ownKnob Try.prog.godebug = none := by kernel_rfl

set_option maxRecDepth 100000 in
set_option maxHeartbeats 1000000 in
theorem walk (a0 : ByteArray) (w0 : a0.size ≤ maxLen) (w : World) :
    Calls Try.prog 6 #[.string a0] w fun e w' => e = .returned (.bool true) ∧ Below w.heap.size w w' := by
  clear w0
  by_cases hlen : 300 < a0.size
  · go_enter Try.func6, Try.ntmps6
    go_wp2_with (go_at_call 8; refine (awake_any w).mono ?_; rintro e w1 ⟨rfl, hb1⟩)
    go_ret
    exact ⟨rfl, hb1⟩
  · have hs : a0.size ≤ 1099511627776 := by omega
    obtain ⟨A, hA⟩ : ∃ A, normS a0 = A := ⟨_, rfl⟩
    have HA := Lib.hid hA
    have sA : A.size ≤ a0.size := by rw [← hA]; exact normS_size a0
    have C1 : Hid (A.data.toList.count 10 = endsP false a0.data.toList) := Lib.hid (by rw [← hA, normS_list, ← normP_false, count_normP])
    have C2 : Hid (A.data.toList.filter (fun c => c != 10) = restL a0.data.toList) := Lib.hid (by rw [← hA, normS_list, ← normP_false, rest_normP])
    clear hA
    go_enter Try.func6, Try.ntmps6
    go_wp2_with (fail)
    refine (awake_any w).mono ?_
    rintro e w1 ⟨rfl, hb1⟩
    go_wp2_with (fail)
    go_loopw [4, 5, 6] (fun c z v wr => ∃ (i ends : Nat) (rest : ByteArray), c = .int .i64 (ends : Int) ∧ z = .string rest ∧ v = .int .i64 (i : Int) ∧ i ≤ a0.size ∧ w1 = wr ∧ ends ≤ i ∧ rest.size ≤ i ∧ EndsAt a0 i ends rest) (fun _ _ v _ => a0.size - (intOf v).toNat)
    case atStart => exact ⟨0, 0, ⟨#[]⟩, rfl, rfl, rfl, Nat.zero_le _, rfl, Nat.le_refl _, Nat.le_refl _, EndsAt.start a0⟩
    case round =>
      obtain ⟨i, ends, rest, rfl, rfl, rfl, hi, rfl, he, hr, hat⟩ := hrel
      by_cases hlt : i < a0.size
      · by_cases h13 : ((a0[i].toNat : Nat) : Int) = 13
        · go_wp2
          go_roundw
          case rel => exact ⟨i + 1, ends + 1, rest, rfl, rfl, rfl, by omega, trivial, by omega, by omega, hat.cr hlt (u8_eq _ 13 (by decide) h13)⟩
          case measure => simp [intOf]; omega
        · have h13' : (((a0[i].toNat : Nat) : Int) == 13) = false := by simpa using h13
          by_cases h10 : ((a0[i].toNat : Nat) : Int) = 10
          · match i, hlt, h13, h13', h10, hi, he, hr, hat with
            | 0, hlt, h13, h13', h10, hi, he, hr, hat =>
              go_wp2
              go_roundw
              case rel => exact ⟨1, ends + 1, rest, rfl, rfl, rfl, by omega, trivial, by omega, by omega, hat.lf hlt (u8_eq _ 10 (by decide) h10) rfl⟩
              case measure => simp [intOf]; omega
            | j + 1, hlt, h13, h13', h10, hi, he, hr, hat =>
              have hj : j < a0.size := by omega
              have hi1 : (((j + 1 : Nat) : Int) == 0) = false := by simp; omega
              by_cases hp : ((a0[j].toNat : Nat) : Int) = 13
              · go_wp2
                go_roundw
                case rel => exact ⟨j + 1 + 1, ends, rest, rfl, rfl, rfl, by omega, trivial, by omega, by omega, hat.lfSkip hlt (u8_eq _ 10 (by decide) h10) (by rw [prev13_succ a0 j hj, u8_eq _ 13 (by decide) hp]; rfl)⟩
                case measure => simp [intOf]; omega
              · have hp' : (((a0[j].toNat : Nat) : Int) != 13) = true := by simpa using hp
                go_wp2
                go_roundw
                case rel => exact ⟨j + 1 + 1, ends + 1, rest, rfl, rfl, rfl, by omega, trivial, by omega, by omega, hat.lf hlt (u8_eq _ 10 (by decide) h10) (by rw [prev13_succ a0 j hj]; simpa using u8_ne _ 13 (by decide) hp)⟩
                case measure => simp [intOf]; omega
          · have h10' : (((a0[i].toNat : Nat) : Int) != 10) = true := by simpa using h10
            go_wp2
            go_roundw
            case rel => exact ⟨i + 1, ends, _, rfl, rfl, rfl, by omega, trivial, by omega, by simp; omega, hat.other hlt (u8_ne _ 13 (by decide) h13) (u8_ne _ 10 (by decide) h10)⟩
            case measure => simp [intOf]; omega
      · obtain ⟨e1, e2⟩ := hat.stop (by omega)
        have E1 := Lib.hid e1
        have E2 := Lib.hid e2
        clear e1 e2 hat
        go_wp2_with (fail)
        refine (norm_s _ _ hs).mono ?_
        rintro e w2 ⟨rfl, hb2⟩
        rw [HA.out]
        have B2 := hb1.trans (hb2.mono hb1.size)
        go_wp2_with (fail)
        go_loopw [8, 9, 10] (fun c z v wr => ∃ (j got : Nat) (left : ByteArray), c = .int .i64 (got : Int) ∧ z = .string left ∧ v = .int .i64 (j : Int) ∧ j ≤ A.size ∧ w2 = wr ∧ got ≤ j ∧ left.size ≤ j ∧ CountAt A j got left) (fun _ _ v _ => A.size - (intOf v).toNat)
        case atStart => exact ⟨0, 0, ⟨#[]⟩, rfl, rfl, rfl, Nat.zero_le _, rfl, Nat.le_refl _, Nat.le_refl _, CountAt.start A⟩
        case round =>
          obtain ⟨j, got, left, rfl, rfl, rfl, hj, rfl, hg, hl, hcat⟩ := hrel
          by_cases hltj : j < A.size
          · by_cases h10 : ((A[j].toNat : Nat) : Int) = 10
            · go_wp2
              go_roundw
              case rel => exact ⟨j + 1, got + 1, left, rfl, rfl, rfl, by omega, trivial, by omega, by omega, hcat.lf hltj (u8_eq _ 10 (by decide) h10)⟩
              case measure => simp [intOf]; omega
            · have h10' : (((A[j].toNat : Nat) : Int) == 10) = false := by simpa using h10
              go_wp2
              go_roundw
              case rel => exact ⟨j + 1, got, _, rfl, rfl, rfl, by omega, trivial, by omega, by simp; omega, hcat.other hltj (u8_ne _ 10 (by decide) h10)⟩
              case measure => simp [intOf]; omega
          · obtain ⟨g1, g2⟩ := hcat.stop (by omega)
            have hge : got = ends := by rw [g1, E1.out, C1.out]
            have hle : left = rest := str_ext (by rw [g2, E2.out, C2.out])
            subst hge hle
            clear g1 g2 hcat
            go_wp2
            go_ret
            exact ⟨by simp, B2⟩
  -- go_wp2
  -- go_ret
  -- exact ⟨rfl, by repeat (first | exact Grown.refl _ | apply Grown.drew | apply Grown.alloc)⟩

set_option maxRecDepth 100000 in
theorem lifted (os : Os) (started : os.Started) (H : Type) (enc : TypeId × Value → H) :
    ReturnsInHanded {} Try.checked os 6 .any (Rows.linesCountsSpec.pre6 enc Try.prog Try.f6 Rows.linesCountsRow.domain false) (Rows.linesCountsSpec.post enc Try.prog Try.f6 false true false false) := by
  refine returnsInHanded_of_change (C := Try.checked) own started (by kernel_rfl) Try.func6
    (ChangeSpec.witness6 (enc := enc) (C := Try.checked) false ⟨#[], #[.string ByteArray.empty], []⟩ 8 (by kernel_rfl) (by kernel_rfl) (by kernel_rfl) (by kernel_rfl)) ?_
  intro W base args ds gs before hval0 hW hcnd _
  have hval : ∀ (j : Nat) t v, Try.f6.params[j]? = some t → args[j]? = some v → Value.okWide Try.prog W .any base t v := hval0
  have hW' := hW
  obtain ⟨p, q, hA0, hV, rfl, hfz, hnd⟩ := hW
  have hA : DataW.TrodAll enc Try.prog W 0 (fun _ => true) true Try.f6.params.toList args.toList ds p := hA0
  rw [Try.params6] at hA hval
  obtain ⟨v0, vs0, d0, ds0, p0, q0, hargs, rfl, rfl, h0, r0⟩ := trodAll_cons hA
  obtain ⟨rfl, rfl, rfl⟩ := trodAll_nil r0
  obtain rfl : args = #[v0] := by cases args; simp_all
  obtain ⟨rfl, rfl⟩ := trodVars_none hV
  obtain ⟨a0, rfl, rfl, rfl, w0⟩ := open_string Try.underlying9 (hval 0 9 v0 rfl rfl) h0
  clear hA0 hval0
  refine (walk a0 w0 W).mono fun e W' ⟨he, bel⟩ => ?_
  subst he
  exact ⟨_, rfl, _, _, _, [], _, [], hW', trodAll_mk1 (shut_bool Try.underlying4 _), (trodAll_cons_mk (shut_string Try.underlying9 w0) trodAll_mk0), rfl, bel.frame _, fun h => by cases h⟩

theorem over : Rows.linesCountsRow.holds Try.pinned (OpenSpec.ofChange Rows.linesCountsSpec) :=
  OpenClaim.holds_of_wide 6 Try.f6 rfl rfl rfl rfl rfl rfl rfl ⟨rfl, rfl, rfl, rfl, rfl⟩ rfl rfl rfl rfl rfl (by kernel_rfl) Try.func6 (by kernel_rfl)
    (of_decide_eq_true (by kernel_rfl)) (by unfold Func.isWrapper; first | (rw [if_pos (by decide +kernel)]; kernel_rfl) | (rw [if_neg (by decide +kernel)]; exact ⟨rfl, rfl⟩))
    (fun os started H enc _ => lifted os started H enc)

/-- ████ THE STATEMENT ████ -/
theorem proved : Rows.LinesCountsSaid :=
  over
end Go.Proofs.Ytmclpgjhfmiedaa.linesCounts
