/-
  The law FlowLines of flail/flaillaw18 answers true for every input, and changes nothing that was there. No condition.
-/
import Derived.Test.YtddikahfenjnaaaRows
import Derived.Test.YtddikahfenjnaaaFloLaw
import Derived.WalkKit
import Derived.ProofKit
import Derived.ChangeOld
import Derived.Below
import Derived.OpenShut
import Derived.ShutString
namespace Go.Proofs.Ytddikahfenjnaaa.flowLines
open Go.ChangeShapes Go.WideShapes Go.ChangeAt Go.RowKit
open Go.ChangeMaps (open_string shut_string)
set_option linter.unusedVariables false      -- a walk need not use every 'w<i>' (that an integer argument fits its kind)

theorem own : ownKnob Try.prog.godebug = none := by kernel_rfl

/-- so many lines' ends behind a word and a blank -/
def lineN (j : Nat) : FloP := if j = 0 then ⟨[120], 0, [32]⟩ else ⟨[120], j, []⟩
theorem lineN_step (j : Nat) : lineF (lineN j) = lineN (j + 1) := by
  unfold lineN
  rw [if_neg (Nat.succ_ne_zero j)]
  by_cases h : j = 0
  · subst h; rfl
  · rw [if_neg h]; rfl
theorem lineN_zero : putL false flo0 [32, 120, 32] = lineN 0 := by kernel_rfl
theorem lineN_break (j : Nat) (n : Int) (m : Nat) (h : max (j : Int) (min n 100) = (m : Int)) : brkF n (lineN j) = ⟨[120], m, []⟩ := by
  have e : max j (min n 100).toNat = m := by omega
  unfold lineN brkF
  by_cases hj : j = 0
  · subst hj
    rw [if_pos rfl]
    simp only [e]
  · rw [if_neg hj]
    simp only [e]
theorem lineN_size (j : Nat) : (lineN j).size ≤ 2 + j := by
  unfold lineN FloP.size
  split <;> simp <;> omega
theorem line_end (m : Nat) : putL false ⟨[120], m, []⟩ [121] = ⟨120 :: (List.replicate m 10 ++ [121]), 0, []⟩ := by
  show putB false _ 121 = _
  unfold putB
  rw [if_neg (by decide), if_neg (by decide)]
  unfold tellF
  rw [if_neg (by simp)]
  simp
set_option maxRecDepth 100000 in
set_option maxHeartbeats 4000000 in
theorem walk (a0 : Int) (a1 : Int) (a2 : Int) (w0 : (Lit.int .u8 a0).wf = true) (w1 : (Lit.int .i64 a1).wf = true) (w2 : (Lit.int .u8 a2).wf = true) (w : World) :
    Calls Try.prog 7 #[.int .u8 a0, .int .i64 a1, .int .u8 a2] w fun e w' => e = .returned (.bool true) ∧ Below w.heap.size w w' := by
  have hb0 : 0 ≤ a0 ∧ a0 ≤ 255 := by simpa [Lit.wf, IntKind.min, IntKind.max, IntKind.signed, IntKind.bits] using w0
  have hb1 : -9223372036854775808 ≤ a1 ∧ a1 ≤ 9223372036854775807 := by simpa [Lit.wf, IntKind.min, IntKind.max, IntKind.signed, IntKind.bits] using w1
  have hb2 : 0 ≤ a2 ∧ a2 ≤ 255 := by simpa [Lit.wf, IntKind.min, IntKind.max, IntKind.signed, IntKind.bits] using w2
  clear w0 w1 w2
  obtain ⟨A, hA⟩ : ∃ A : Nat, a0 % 50 = (A : Int) := ⟨(a0 % 50).toNat, by omega⟩
  obtain ⟨B, hB⟩ : ∃ B : Nat, a2 % 50 = (B : Int) := ⟨(a2 % 50).toNat, by omega⟩
  have hA50 : A < 50 := by omega
  have hB50 : B < 50 := by omega
  obtain ⟨m, hm⟩ : ∃ m : Nat, max (A : Int) (min a1 100) = (m : Int) := ⟨(max (A : Int) (min a1 100)).toNat, by omega⟩
  have hm100 : m ≤ 100 := by omega
  have HM0 := Lib.hid hm
  have h0 : flo0.size = 0 := rfl
  have s3 : (⟨#[32, 120, 32]⟩ : ByteArray).size = 3 := rfl
  have s1 : (⟨#[121]⟩ : ByteArray).size = 1 := rfl
  have C1 := fun g w' h => Lib.hid (putM_any w w' g flo0 Emp Lies.emp h ⟨#[32, 120, 32]⟩ false (by omega))
  rw [show putL false flo0 (⟨#[32, 120, 32]⟩ : ByteArray).data.toList = lineN 0 from lineN_zero] at C1
  have CL := fun j (hj : j ≤ 50) g w' h => Lib.hid (lineM_any w w' g (lineN j) Emp Lies.emp h (by have := lineN_size j; omega))
  simp only [lineN_step] at CL
  have CB := fun g w' h => Lib.hid (breakM_any w w' g (lineN A) Emp Lies.emp h a1 (by have := lineN_size A; omega) hb1)
  rw [lineN_break A a1 m hm] at CB
  have CM := fun j (hj : j ≤ 200) g w' h => Lib.hid (lineM_any w w' g ⟨[120], j, []⟩ Emp Lies.emp h (by unfold FloP.size; simp; omega))
  have CP := fun j (hj : j ≤ 200) g w' h => Lib.hid (putM_any w w' g ⟨[120], j, []⟩ Emp Lies.emp h ⟨#[121]⟩ false (by rw [s1]; unfold FloP.size; simp; omega))
  have CP := fun j hj g w' h => (show Hid (Calls Try.prog 16 #[.pointer (some g), .string ⟨#[121]⟩, .bool false] w' fun e w'' => e = .returned (.tuple #[]) ∧ Flo w w'' g ⟨120 :: (List.replicate j 10 ++ [121]), 0, []⟩ Emp) by rw [← line_end j]; exact CP j hj g w' h)
  have CT := fun j (hj : j ≤ 200) g w' h => Lib.hid (textM_any w w' g ⟨120 :: (List.replicate j 10 ++ [121]), 0, []⟩ Emp Lies.emp h (by unfold FloP.size; simp; omega))
  clear h0 s3 s1 hm hb1
  go_enter Try.func7, Try.ntmps7
  go_wp2_with (fail)
  refine (floAwake_any w).mono ?_
  rintro e w1 ⟨rfl, c1⟩
  have B1 := Lib.hid c1
  clear c1
  go_wp2_with (fail)
  refine (newM_any w w1 Emp Lies.emp (Made.none B1.out)).mono ?_
  rintro e w3 ⟨g, rfl, m3⟩
  have M3 := Lib.hid m3
  clear m3
  go_wp2_with (fail)
  refine (C1 g _ M3.out).out.mono ?_
  rintro e w4 ⟨rfl, m4⟩
  have M4 := Lib.hid m4
  clear m4 C1
  go_wp2
  go_loopw [9] (fun v wr => ∃ i : Nat, v = .int .i64 (i : Int) ∧ i ≤ A ∧ Hid (Flo w wr g (lineN i) Emp)) (fun v _ => A - (intOf v).toNat)
  case atStart => exact ⟨0, rfl, Nat.zero_le _, M4⟩
  case round =>
    obtain ⟨i, rfl, hi, HM⟩ := hrel
    by_cases hlt : i < A
    · have HC := CL i (by omega) g wr HM.out
      go_wp2_with (go_at_call 17; refine HC.out.mono ?_; rintro e w5 ⟨rfl, m5⟩)
      go_roundw
      case rel => exact ⟨i + 1, by go_num, by omega, Lib.hid m5⟩
      case measure => simp [intOf]; omega
    · obtain rfl : i = A := by omega
      have HC := CB g wr HM.out
      go_wp2_with (go_at_call 18; refine HC.out.mono ?_; rintro e w5 ⟨rfl, m5⟩; have M5 := Lib.hid m5; clear m5)
      clear CB CL HC
      go_loopw [10] (fun v wr => ∃ j : Nat, v = .int .i64 (j : Int) ∧ j ≤ B ∧ Hid (Flo w wr g ⟨[120], m + j, []⟩ Emp)) (fun v _ => B - (intOf v).toNat)
      case atStart => exact ⟨0, rfl, Nat.zero_le _, M5⟩
      case round =>
        obtain ⟨j, rfl, hj, HMj⟩ := hrel
        by_cases hlt2 : j < B
        · have HC := CM (m + j) (by omega) g _ HMj.out
          go_wp2_with (go_at_call 17; refine HC.out.mono ?_; rintro e w7 ⟨rfl, m7⟩)
          go_roundw
          case rel => exact ⟨j + 1, by go_num, by omega, Lib.hid m7⟩
          case measure => simp [intOf]; omega
        · obtain rfl : j = B := by omega
          have HC := CP (m + j) (by omega) g _ HMj.out
          have CT := fun w' h => CT (m + j) (by omega) g w' h
          have hm2 := HM0.out
          obtain ⟨N, hN⟩ : ∃ N, m + j = N := ⟨_, rfl⟩
          rw [hN] at HC CT
          have hNs : N ≤ 200 := by omega
          have hways : (100 < a1 ∧ (100 : Int) + (j : Int) = (N : Int)) ∨ (a1 ≤ 100 ∧ (i : Int) < a1 ∧ a1 + (j : Int) = (N : Int)) ∨ (a1 ≤ 100 ∧ a1 ≤ (i : Int) ∧ (i : Int) + (j : Int) = (N : Int)) := by omega
          clear CM CP hN HM0 hm2
          have hi50 : i < 50 := hA50
          rcases hways with ⟨v1, v2⟩ | ⟨v1, v2, v3⟩ | ⟨v1, v2, v3⟩
          all_goals
            go_wp2_with (go_at_call 16; refine HC.out.mono ?_; rintro e w7 ⟨rfl, m7⟩; have M7 := Lib.hid m7; clear m7)
            clear HC
            go_loopw [12, 13] (fun v12 v13 w8 => ∃ (k : Nat) (D : ByteArray), v13 = .int .i64 (k : Int) ∧ v12 = .string D ∧ k ≤ N ∧ w7 = w8 ∧ Hid (D.data.toList = 120 :: List.replicate k 10)) (fun _ v _ => N - (intOf v).toNat)
            case atStart => exact ⟨0, ⟨#[120]⟩, rfl, rfl, Nat.zero_le _, rfl, Lib.hid rfl⟩
            case round =>
              obtain ⟨k, D, rfl, rfl, hk, rfl, HD⟩ := hrel
              have hDs : D.size = k + 1 := by rw [Lib.size_eq, HD.out]; simp
              by_cases hlt3 : k < N
              · have HD2 := Lib.hid (show (D ++ ⟨#[10]⟩ : ByteArray).data.toList = 120 :: List.replicate (k + 1) 10 by
                  rw [ByteArray.data_append, Array.toList_append, HD.out, List.replicate_succ']; rfl)
                have g1 : ¬ 9223372036854775807 < D.size + (⟨#[10]⟩ : ByteArray).size := by rw [hDs, show (⟨#[10]⟩ : ByteArray).size = 1 from rfl]; omega
                have g2 : ¬ 9223372036854775807 < D.size + 1 := by omega
                clear hDs
                go_wp2
                go_roundw
                case rel => exact ⟨k + 1, D ++ ⟨#[10]⟩, by go_num, rfl, by omega, trivial, HD2⟩
                case measure => simp [intOf]; omega
              · obtain rfl : k = N := by omega
                have hE : D ++ ⟨#[121]⟩ = ⟨(120 :: (List.replicate k 10 ++ [121])).toArray⟩ := str_ext (by
                  rw [ByteArray.data_append, Array.toList_append, HD.out, List.toList_toArray]; rfl)
                rw [← hE] at CT
                obtain ⟨E, hE2⟩ : ∃ E, D ++ (⟨#[121]⟩ : ByteArray) = E := ⟨_, rfl⟩
                have HCT := CT _ M7.out
                rw [hE2] at HCT
                have g1 : ¬ 9223372036854775807 < D.size + (⟨#[121]⟩ : ByteArray).size := by rw [hDs, show (⟨#[121]⟩ : ByteArray).size = 1 from rfl]; omega
                have g2 : ¬ 9223372036854775807 < D.size + 1 := by omega
                clear hE CT hDs
                go_wp2_with (go_at_call 14; refine HCT.out.mono ?_; rintro e w9 ⟨rfl, m9⟩)
                go_ret
                exact ⟨ret_bool (by simp), m9.bel⟩
  -- go_wp2
  -- go_ret
  -- exact ⟨rfl, by repeat (first | exact Grown.refl _ | apply Grown.drew | apply Grown.alloc)⟩

set_option maxRecDepth 100000 in
theorem lifted (os : Os) (started : os.Started) (H : Type) (enc : TypeId × Value → H) :
    ReturnsInHanded {} Try.checked os 7 .any (Rows.flowLinesSpec.pre6 enc Try.prog Try.f7 Rows.flowLinesRow.domain false) (Rows.flowLinesSpec.post enc Try.prog Try.f7 false true false false) := by
  refine returnsInHanded_of_change (C := Try.checked) own started (by kernel_rfl) Try.func7
    (ChangeSpec.witness6 (enc := enc) (C := Try.checked) false ⟨#[], #[.int .u8 0, .int .i64 0, .int .u8 0], []⟩ 8 (by kernel_rfl) (by kernel_rfl) (by kernel_rfl) (by kernel_rfl)) ?_
  intro W base args ds gs before hval0 hW hcnd _
  have hval : ∀ (j : Nat) t v, Try.f7.params[j]? = some t → args[j]? = some v → Value.okWide Try.prog W .any base t v := hval0
  have hW' := hW
  obtain ⟨p, q, hA0, hV, rfl, hfz, hnd⟩ := hW
  have hA : DataW.TrodAll enc Try.prog W 0 (fun _ => true) true Try.f7.params.toList args.toList ds p := hA0
  rw [Try.params7] at hA hval
  obtain ⟨v0, vs0, d0, ds0, p0, q0, hargs, rfl, rfl, h0, r0⟩ := trodAll_cons hA
  obtain ⟨v1, vs1, d1, ds1, p1, q1, rfl, rfl, rfl, h1, r1⟩ := trodAll_cons r0
  obtain ⟨v2, vs2, d2, ds2, p2, q2, rfl, rfl, rfl, h2, r2⟩ := trodAll_cons r1
  obtain ⟨rfl, rfl, rfl⟩ := trodAll_nil r2
  obtain rfl : args = #[v0, v1, v2] := by cases args; simp_all
  obtain ⟨rfl, rfl⟩ := trodVars_none hV
  obtain ⟨a0, rfl, rfl, rfl, w0⟩ := open_int Try.underlying5 (hval 0 5 v0 rfl rfl) h0
  obtain ⟨a1, rfl, rfl, rfl, w1⟩ := open_int Try.underlying3 (hval 1 3 v1 rfl rfl) h1
  obtain ⟨a2, rfl, rfl, rfl, w2⟩ := open_int Try.underlying5 (hval 2 5 v2 rfl rfl) h2
  clear hA0 hval0
  refine (walk a0 a1 a2 w0 w1 w2 W).mono fun e W' ⟨he, bel⟩ => ?_
  subst he
  exact ⟨_, rfl, _, _, _, [], _, [], hW', trodAll_mk1 (shut_bool Try.underlying4 _), (trodAll_cons_mk (shut_int Try.underlying5 w0) (trodAll_cons_mk (shut_int Try.underlying3 w1) (trodAll_cons_mk (shut_int Try.underlying5 w2) trodAll_mk0))), rfl, bel.frame _, fun h => by cases h⟩

theorem over : Rows.flowLinesRow.holds Try.pinned (OpenSpec.ofChange Rows.flowLinesSpec) :=
  OpenClaim.holds_of_wide 7 Try.f7 rfl rfl rfl rfl rfl rfl rfl ⟨rfl, rfl, rfl, rfl, rfl⟩ rfl rfl rfl rfl rfl (by kernel_rfl) Try.func7 (by kernel_rfl)
    (of_decide_eq_true (by kernel_rfl)) (by unfold Func.isWrapper; first | (rw [if_pos (by decide +kernel)]; kernel_rfl) | (rw [if_neg (by decide +kernel)]; exact ⟨rfl, rfl⟩))
    (fun os started H enc _ => lifted os started H enc)

/-- ████ THE STATEMENT ████ -/
theorem proved : Rows.FlowLinesSaid :=
  over
end Go.Proofs.Ytddikahfenjnaaa.flowLines
