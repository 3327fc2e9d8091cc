/-
  The law UtfNumbers of flail/flaillaw01 answers true for every input, and changes nothing that was there. No condition.
-/
import Derived.Test.YtafghfljbelgdaaRows
import Derived.Test.YtafghfljbelgdaaUtfLaws
import Derived.WalkKit
import Derived.ProofKit
import Derived.ChangeOld
import Derived.Below
import Derived.OpenShut
import Derived.ShutString
namespace Go.Proofs.Ytafghfljbelgdaa.utfNumbers
open Go.ChangeShapes Go.WideShapes Go.ChangeAt Go.RowKit
open Go.ChangeMaps (open_string shut_string)
set_option linter.unusedVariables false      -- a walk need not use every 'w<i>' (that an integer argument fits its kind)

theorem own : ownKnob Try.prog.godebug = none := by kernel_rfl

set_option maxRecDepth 100000 in
set_option maxHeartbeats 4000000 in
theorem walk (a0 : Int) (a1 : Int) (w0 : (Lit.int .u32 a0).wf = true) (w1 : (Lit.int .u32 a1).wf = true) (w : World) :
    Calls Try.prog 8 #[.int .u32 a0, .int .u32 a1] w fun e w' => e = .returned (.bool true) ∧ Below w.heap.size w w' := by
  have hx0 : 0 ≤ a0 ∧ a0 ≤ 4294967295 := by simpa [Lit.wf, IntKind.min, IntKind.max, IntKind.signed, IntKind.bits] using w0
  have hx1 : 0 ≤ a1 ∧ a1 ≤ 4294967295 := by simpa [Lit.wf, IntKind.min, IntKind.max, IntKind.signed, IntKind.bits] using w1
  clear w0 w1
  obtain ⟨a, ha⟩ : ∃ a : Nat, (a : Int) = a0 % 1114112 := ⟨(a0 % 1114112).toNat, by omega⟩
  obtain ⟨b, hb⟩ : ∃ b : Nat, (b : Int) = a1 % 1114112 := ⟨(a1 % 1114112).toNat, by omega⟩
  have ha1 : a ≤ 1114111 := by omega
  have hb1 : b ≤ 1114111 := by omega
  obtain ⟨A, hA, lA, sA⟩ := named (Lib.encodeRune (a : Int))
  obtain ⟨B, hB, lB, sB⟩ := named (Lib.encodeRune (b : Int))
  have Ha := Lib.hid ha
  have Hb := Lib.hid hb
  clear ha hb
  go_enter Try.func8, Try.ntmps8
  go_wp2_with (fail)
  refine (awake_any w).mono ?_
  rintro e w1 ⟨rfl, hb1⟩
  go_wp2_with (fail)
  rw [← Ha.out, ← Hb.out]
  refine (sign_any (a : Int) _).mono ?_
  rintro e w2 ⟨rfl, rfl⟩
  rw [hA]
  go_wp2_with (fail)
  refine (sign_any (b : Int) _).mono ?_
  rintro e w2 ⟨rfl, rfl⟩
  rw [hB]
  clear Ha Hb hx0 hx1
  obtain ⟨x, hx⟩ : ∃ x : Int, (a : Int) = x := ⟨_, rfl⟩
  obtain ⟨y, hy⟩ : ∃ y : Int, (b : Int) = y := ⟨_, rfl⟩
  rw [hx, hy]
  have x0 : 0 ≤ x := by omega
  have y0 : 0 ≤ y := by omega
  by_cases sa : 55296 ≤ a ∧ a ≤ 57343
  · obtain ⟨sa1, sa2⟩ := sa
    obtain rfl : A = ⟨#[239, 191, 189]⟩ := by rw [← hA, enc_none a ⟨sa1, sa2⟩]; rfl
    have sx1 : 55296 ≤ x := by omega
    have sx2 : x ≤ 57343 := by omega
    clear lA sA lB sB hB hA sa1 sa2 ha1 hx hy
    go_wp2
    go_ret
    exact ⟨rfl, hb1⟩
  have ca : a < 55296 ∨ 57343 < a := by omega
  by_cases sb : 55296 ≤ b ∧ b ≤ 57343
  · obtain ⟨sb1, sb2⟩ := sb
    obtain rfl : B = ⟨#[239, 191, 189]⟩ := by rw [← hB, enc_none b ⟨sb1, sb2⟩]; rfl
    have sy1 : 55296 ≤ y := by omega
    have sy2 : y ≤ 57343 := by omega
    have cx : x < 55296 ∨ 57343 < x := by omega
    clear lA sA lB sB hB hA sa sb1 sb2 ca hx hy ha1
    rcases cx with cx | cx
    · go_wp2
      all_goals
        go_ret
        exact ⟨by simp [*], hb1⟩
    · go_wp2
      all_goals
        go_ret
        exact ⟨by simp [*], hb1⟩
  have ia : IsSign a := by unfold IsSign; omega
  have ib : IsSign b := by unfold IsSign; omega
  have cb : b < 55296 ∨ 57343 < b := by omega
  have T : Op.bytesLess A.toList B.toList = decide (a < b) := by rw [ByteArray.toList_eq, ByteArray.toList_eq, lA, lB]; exact enc_less a b ia ib
  have E : (A.toList == B.toList) = decide (a = b) := by
    rw [ByteArray.toList_eq, ByteArray.toList_eq, lA, lB, Bool.eq_iff_iff, beq_iff_eq, decide_eq_true_iff]
    exact ⟨fun h => enc_inj a b ia ib h, fun h => by rw [h]⟩
  have hwant := enc_want a ia
  rw [← sA] at hwant
  have hlen : ∀ k : Nat, A.size = k → (((A.size : Int) == (k : Int)) = true) := fun k h => by rw [h]; simp
  have cases : (x < 128 ∧ x < 55296 ∧ ((A.size : Int) == 1) = true) ∨ (128 ≤ x ∧ x < 2048 ∧ ((A.size : Int) == 2) = true) ∨ (2048 ≤ x ∧ x < 55296 ∧ ((A.size : Int) == 3) = true) ∨
      (57343 < x ∧ x < 65536 ∧ ((A.size : Int) == 3) = true) ∨ (57343 < x ∧ 65536 ≤ x ∧ ((A.size : Int) == 4) = true) := by
    by_cases c1 : a < 128
    · exact .inl ⟨by omega, by omega, hlen 1 (by rw [hwant, if_pos c1])⟩
    by_cases c2 : a < 2048
    · exact .inr (.inl ⟨by omega, by omega, hlen 2 (by rw [hwant, if_neg c1, if_pos c2])⟩)
    by_cases c3 : a < 65536
    · have h3 := hlen 3 (by rw [hwant, if_neg c1, if_neg c2, if_pos c3])
      rcases ca with ca | ca
      · exact .inr (.inr (.inl ⟨by omega, by omega, h3⟩))
      · exact .inr (.inr (.inr (.inl ⟨by omega, by omega, h3⟩)))
    · exact .inr (.inr (.inr (.inr ⟨by omega, by omega, hlen 4 (by rw [hwant, if_neg c1, if_neg c2, if_neg c3])⟩)))
  have ord : (x < y ∧ x ≤ y ∧ Op.bytesLess A.toList B.toList = true ∧ (A.toList == B.toList) = false ∧ (x == y) = false) ∨
      (x ≤ y ∧ y ≤ x ∧ Op.bytesLess A.toList B.toList = false ∧ (A.toList == B.toList) = true ∧ (x == y) = true) ∨
      (y < x ∧ y ≤ x ∧ Op.bytesLess A.toList B.toList = false ∧ (A.toList == B.toList) = false ∧ (x == y) = false) := by
    rw [T, E]
    rcases Nat.lt_trichotomy a b with h | h | h
    · exact .inl ⟨by omega, by omega, by simp [h], by simp; omega, by simp; omega⟩
    · exact .inr (.inl ⟨by omega, by omega, by simp; omega, by simp [h], by simp; omega⟩)
    · exact .inr (.inr ⟨by omega, by omega, by simp; omega, by simp; omega, by simp; omega⟩)
  have cy : y < 55296 ∨ 57343 < y := by omega
  have y1 : y ≤ 1114111 := by omega
  clear T E hwant hlen hA hB lA lB sA sB ia ib ca cb sa sb hx hy ha1
  rcases cases with ⟨k1, k2, k3⟩ | ⟨k1, k2, k3⟩ | ⟨k1, k2, k3⟩ | ⟨k1, k2, k3⟩ | ⟨k1, k2, k3⟩ <;>
    rcases ord with ⟨o1, o2, o3, o4, o5⟩ | ⟨o1, o2, o3, o4, o5⟩ | ⟨o1, o2, o3, o4, o5⟩ <;> rcases cy with cy | cy <;>
    first
      | (exfalso; omega)
      | (go_wp2; go_ret; exact ⟨by simp <;> omega, hb1⟩)
  -- go_enter Try.func8, Try.ntmps8
  -- go_wp2
  -- go_ret
  -- exact ⟨rfl, by repeat (first | exact Grown.refl _ | apply Grown.drew | apply Grown.alloc)⟩

set_option maxRecDepth 100000 in
theorem lifted (os : Os) (started : os.Started) (H : Type) (enc : TypeId × Value → H) :
    ReturnsInHanded {} Try.checked os 8 .any (Rows.utfNumbersSpec.pre6 enc Try.prog Try.f8 Rows.utfNumbersRow.domain false) (Rows.utfNumbersSpec.post enc Try.prog Try.f8 false true false false) := by
  refine returnsInHanded_of_change (C := Try.checked) own started (by kernel_rfl) Try.func8
    (ChangeSpec.witness6 (enc := enc) (C := Try.checked) false ⟨#[], #[.int .u32 0, .int .u32 0], []⟩ 8 (by kernel_rfl) (by kernel_rfl) (by kernel_rfl) (by kernel_rfl)) ?_
  intro W base args ds gs before hval0 hW hcnd _
  have hval : ∀ (j : Nat) t v, Try.f8.params[j]? = some t → args[j]? = some v → Value.okWide Try.prog W .any base t v := hval0
  have hW' := hW
  obtain ⟨p, q, hA0, hV, rfl, hfz, hnd⟩ := hW
  have hA : DataW.TrodAll enc Try.prog W 0 (fun _ => true) true Try.f8.params.toList args.toList ds p := hA0
  rw [Try.params8] at hA hval
  obtain ⟨v0, vs0, d0, ds0, p0, q0, hargs, rfl, rfl, h0, r0⟩ := trodAll_cons hA
  obtain ⟨v1, vs1, d1, ds1, p1, q1, rfl, rfl, rfl, h1, r1⟩ := trodAll_cons r0
  obtain ⟨rfl, rfl, rfl⟩ := trodAll_nil r1
  obtain rfl : args = #[v0, v1] := by cases args; simp_all
  obtain ⟨rfl, rfl⟩ := trodVars_none hV
  obtain ⟨a0, rfl, rfl, rfl, w0⟩ := open_int Try.underlying32 (hval 0 32 v0 rfl rfl) h0
  obtain ⟨a1, rfl, rfl, rfl, w1⟩ := open_int Try.underlying32 (hval 1 32 v1 rfl rfl) h1
  clear hA0 hval0
  refine (walk a0 a1 w0 w1 W).mono fun e W' ⟨he, bel⟩ => ?_
  subst he
  exact ⟨_, rfl, _, _, _, [], _, [], hW', trodAll_mk1 (shut_bool Try.underlying4 _), (trodAll_cons_mk (shut_int Try.underlying32 w0) (trodAll_cons_mk (shut_int Try.underlying32 w1) trodAll_mk0)), rfl, bel.frame _, fun h => by cases h⟩

theorem over : Rows.utfNumbersRow.holds Try.pinned (OpenSpec.ofChange Rows.utfNumbersSpec) :=
  OpenClaim.holds_of_wide 8 Try.f8 rfl rfl rfl rfl rfl rfl rfl ⟨rfl, rfl, rfl, rfl, rfl⟩ rfl rfl rfl rfl rfl (by kernel_rfl) Try.func8 (by kernel_rfl)
    (of_decide_eq_true (by kernel_rfl)) (by unfold Func.isWrapper; first | (rw [if_pos (by decide +kernel)]; kernel_rfl) | (rw [if_neg (by decide +kernel)]; exact ⟨rfl, rfl⟩))
    (fun os started H enc _ => lifted os started H enc)

/-- ████ THE STATEMENT ████ -/
theorem proved : Rows.UtfNumbersSaid :=
  over
end Go.Proofs.Ytafghfljbelgdaa.utfNumbers
