/-
  The law UtfJoins of flail/flaillaw01 answers true for every input, and changes nothing that was there. No condition.
-/
import Derived.Test.YtafghfljbelgdaaRows
import Derived.Test.YtafghfljbelgdaaUtfJoin
import Derived.WalkKit
import Derived.ProofKit
import Derived.ChangeOld
import Derived.Below
import Derived.OpenShut
import Derived.ShutString
namespace Go.Proofs.Ytafghfljbelgdaa.utfJoins
open Go.ChangeShapes Go.WideShapes Go.ChangeAt Go.RowKit
open Go.ChangeMaps (open_string shut_string)
set_option linter.unusedVariables false      -- a walk need not use every 'w<i>' (that an integer argument fits its kind)

theorem own : ownKnob Try.prog.godebug = none := by kernel_rfl

set_option maxRecDepth 100000 in
set_option maxHeartbeats 1000000 in
theorem walk (a0 : ByteArray) (a1 : ByteArray) (a2 : Int) (w0 : a0.size ≤ maxLen) (w1 : a1.size ≤ maxLen) (w2 : (Lit.int .u8 a2).wf = true) (w : World) :
    Calls Try.prog 9 #[.string a0, .string a1, .int .u8 a2] w fun e w' => e = .returned (.bool true) ∧ Below w.heap.size w w' := by
  have hx : 0 ≤ a2 ∧ a2 ≤ 255 := by simpa [Lit.wf, IntKind.min, IntKind.max, IntKind.signed, IntKind.bits] using w2
  clear w2
  have kc := fun (wx : World) (s : ByteArray) => run_bytes_of_string (P := Try.prog) wx 9 22 5 s Try.underlying9 Try.underlying22 Try.underlying5
  have mk : ∀ b : Bool, Lib.hasPrefix a0.data.toList markL = b → Hid (Lib.hasPrefix a0.data.toList (ByteArray.mk #[239, 187, 191]).data.toList = b) := fun b h => Lib.hid h
  by_cases h1 : 300 < a0.size
  · go_enter Try.func9, Try.ntmps9
    go_wp2_with (fail)
    refine (awake_any w).mono ?_
    rintro e w1 ⟨rfl, hb1⟩
    go_wp2_with (fail)
    refine (begins_any a0 _ _).mono ?_
    rintro e w2 ⟨rfl, rfl⟩
    go_wp2
    go_ret
    exact ⟨rfl, hb1⟩
  by_cases h2 : 300 < a1.size
  · have h1' : a0.size ≤ 300 := by omega
    go_enter Try.func9, Try.ntmps9
    go_wp2_with (fail)
    refine (awake_any w).mono ?_
    rintro e w1 ⟨rfl, hb1⟩
    go_wp2_with (fail)
    refine (begins_any a0 _ _).mono ?_
    rintro e w2 ⟨rfl, rfl⟩
    go_wp2
    go_ret
    exact ⟨rfl, hb1⟩
  have h1' : a0.size ≤ 300 := by omega
  have h2' : a1.size ≤ 300 := by omega
  cases he : a0.toList.isEmpty with
  | true =>
    go_enter Try.func9, Try.ntmps9
    go_wp2_with (fail)
    refine (awake_any w).mono ?_
    rintro e w1 ⟨rfl, hb1⟩
    go_wp2_with (fail)
    refine (begins_any a0 _ _).mono ?_
    rintro e w2 ⟨rfl, rfl⟩
    go_wp2
    go_ret
    exact ⟨rfl, hb1⟩
  | false =>
    have hne : a0.data.toList ≠ [] := by
      intro h0
      rw [ByteArray.toList_eq, h0] at he
      simp at he
    have HNE := Lib.hid hne
    clear hne
    cases hm : Lib.hasPrefix a0.data.toList markL with
    | true =>
      have HM := mk _ hm
      clear hm mk
      go_enter Try.func9, Try.ntmps9
      go_wp2_with (fail)
      refine (awake_any w).mono ?_
      rintro e w1 ⟨rfl, hb1⟩
      go_wp2_with (fail)
      refine (begins_any a0 _ _).mono ?_
      rintro e w2 ⟨rfl, rfl⟩
      rw [HM.out]
      go_wp2
      go_ret
      exact ⟨rfl, hb1⟩
    | false =>
      have HM := mk _ hm
      have HM0 := Lib.hid hm
      clear hm mk
      cases hva : Lib.validD a0.data.toList with
      | false =>
        have HA := Lib.hid hva
        clear hva
        go_enter Try.func9, Try.ntmps9
        go_wp2_with (fail)
        refine (awake_any w).mono ?_
        rintro e w1 ⟨rfl, hb1⟩
        have hs1 := hb1.size
        go_wp2_with (fail)
        refine (begins_any a0 _ _).mono ?_
        rintro e w2 ⟨rfl, rfl⟩
        rw [HM.out]
        go_wp2_with (fail)
        refine (right_any a0 _).mono ?_
        rintro e w3 ⟨rfl, hb3⟩
        rw [HA.out]
        go_wp2
        go_ret
        exact ⟨rfl, hb1.trans (hb3.mono hs1)⟩
      | true =>
        have HA := Lib.hid hva
        clear hva
        cases hvb : Lib.validD a1.data.toList with
        | false =>
          have HB := Lib.hid hvb
          clear hvb
          go_enter Try.func9, Try.ntmps9
          go_wp2_with (fail)
          refine (awake_any w).mono ?_
          rintro e w1 ⟨rfl, hb1⟩
          have hs1 := hb1.size
          go_wp2_with (fail)
          refine (begins_any a0 _ _).mono ?_
          rintro e w2 ⟨rfl, rfl⟩
          rw [HM.out]
          go_wp2_with (fail)
          refine (right_any a0 _).mono ?_
          rintro e w3 ⟨rfl, hb3⟩
          rw [HA.out]
          have hs3 := hb3.size
          go_wp2_with (fail)
          refine (right_any a1 _).mono ?_
          rintro e w4 ⟨rfl, hb4⟩
          rw [HB.out]
          go_wp2
          go_ret
          exact ⟨rfl, (hb1.trans (hb3.mono hs1)).trans (hb4.mono (by omega))⟩
        | true =>
          have HB := Lib.hid hvb
          clear hvb
          go_enter Try.func9, Try.ntmps9
          go_wp2_with (fail)
          refine (awake_any w).mono ?_
          rintro e w1 ⟨rfl, hb1⟩
          have hs1 := hb1.size
          go_wp2_with (fail)
          refine (begins_any a0 _ _).mono ?_
          rintro e w2 ⟨rfl, rfl⟩
          rw [HM.out]
          go_wp2_with (fail)
          refine (right_any a0 _).mono ?_
          rintro e w3 ⟨rfl, hb3⟩
          rw [HA.out]
          have hs3 := hb3.size
          go_wp2_with (fail)
          refine (right_any a1 _).mono ?_
          rintro e w4 ⟨rfl, hb4⟩
          rw [HB.out]
          have B4 : Below w.heap.size w w4 := (hb1.trans (hb3.mono hs1)).trans (hb4.mono (by omega))
          obtain ⟨k, hk13, hk⟩ : ∃ k : Nat, k < 13 ∧ (a2 % 13).toNat = k := ⟨_, by omega, rfl⟩
          obtain ⟨c, hc⟩ : ∃ c : UInt8, noneL.getD k 0 = c := ⟨_, rfl⟩
          have HC : Hid (NoByte c) := Lib.hid (by have := noneL_no ⟨k, hk13⟩; rw [← hc]; exact this)
          have hload : ∀ o : Obj, ((w4.alloc (.cells #[.int .u8 192, .int .u8 193, .int .u8 245, .int .u8 246, .int .u8 247, .int .u8 248, .int .u8 249, .int .u8 250, .int .u8 251, .int .u8 252, .int .u8 253, .int .u8 254, .int .u8 255] 5)).alloc o).cell? ⟨w4.heap.size, (a2 % 13).toNat, none⟩ = some (.int .u8 (c.toNat : Int)) := fun o => by
            rw [hk, ← hc]; exact none_cell w4 o k hk13
          clear hk hc
          obtain ⟨i0, hi, hz0, hz1, hz2⟩ := info_parts byteInfo
          go_wp2_with (at_builtin; refine wpList_append_G _ rfl _ _ 22 22 rfl w4.heap.size 5 i0 _ 1 1 Try.underlying22 hi hz0 hz1 hz2 rfl _ a0.size (Lib.byteCells a0.data.toList) rfl ?own _ 1 (Lib.byteCells [c]) rfl ?src ?c1 ?c2 ?c3 ?_)
          case own => exact OwnsG.conv_at (w4.alloc _) (w4.heap.size + 1) (by simp) a0 a0.size w4.heap.size rfl w0 (by simp) _
          case src => exact src_bytes (isBytes_at ((w4.alloc _).alloc _) (w4.heap.size + 2) (by simp) _ _ [c] 1 rfl rfl (by decide))
          case c1 => unfold maxLen; omega
          case c2 => omega
          case c3 => simp; omega
          intro v1 w5 own1 gr1 hat1
          have B5 : Below w.heap.size w w5 := by
            have hs4 := B4.size
            refine ((((B4.alloc (by omega) _).alloc (by simp; omega) _).alloc (by simp; omega) _).drew).grown gr1 (by simp; omega) (fun k hk => ?_)
            have : w4.heap.size + 1 = k := by simpa [Value.ownBlock] using hk
            omega
          have hs5 := gr1.size
          simp at hs5
          have lo1 := own1.lt
          obtain ⟨x1, cap1, rfl, -, -⟩ := own1.form
          go_wp2_with (at_builtin; refine wpList_append_G _ rfl _ _ 22 9 rfl w4.heap.size 5 i0 _ 1 1 Try.underlying22 hi hz0 hz1 hz2 rfl _ _ _ rfl own1 _ _ _ rfl (src_str a1) ?c1 ?c2 ?c3 ?_)
          case c1 => unfold maxLen; omega
          case c2 => omega
          case c3 => omega
          intro v2 w6 own2 gr2 hat2
          have B6 : Below w.heap.size w w6 := B5.grown gr2 (by have := B4.size; omega) (fun k hk => by have := lo1 k hk; have := B4.size; omega)
          have hs6 := gr2.size
          obtain ⟨l2, hl2⟩ : ∃ l2, a0.data.toList ++ c :: a1.data.toList = l2 := ⟨_, rfl⟩
          have hl2n : l2.length = a0.size + 1 + a1.size := by rw [← hl2, Lib.size_eq, Lib.size_eq]; simp; omega
          have bytes2 : IsBytes w6 v2 l2 := by
            refine OwnsG.isBytes (base := w4.heap.size) ?_
            rw [hl2n, ← hl2]
            have e : Lib.byteCells (a0.data.toList ++ c :: a1.data.toList) = Lib.byteCells a0.data.toList ++ (Lib.byteCells [c] ++ Lib.byteCells a1.data.toList) := by simp [Lib.byteCells]
            rw [e]; exact own2
          have R1 : Hid (Lib.validD (a0 ++ a1).data.toList = true) := Lib.hid (by rw [app_list]; exact join_right _ _ HA.out HB.out)
          have D1 : Hid ((⟨(dec (a0 ++ a1).data.toList).toArray⟩ : ByteArray) = a0 ++ a1) := Lib.hid (list_str (by rw [app_list]; exact join_dec _ _ HNE.out HM0.out HA.out HB.out))
          have D2 : Hid ((⟨(dec l2).toArray⟩ : ByteArray) = a0 ++ ⟨#[239, 191, 189]⟩ ++ a1) := Lib.hid (list_str (by rw [← hl2, join_dec_bad _ _ c HC.out HNE.out HM0.out HA.out HB.out, app_list, app_list, List.append_assoc]; rfl))
          have R2 : Hid (Lib.validD (ByteArray.mk l2.toArray).data.toList = false) := Lib.hid (by rw [strL, ← hl2]; exact join_wrong _ _ c HC.out HA.out)
          have lo2 := own2.lt
          obtain ⟨x2, cap2, rfl, -, -⟩ := own2.form
          have hl2s : l2.length ≤ 1000 := by omega
          clear hl2 hl2n own1 own2 gr1 gr2 hat1 hat2 lo1 hload B4 B5 hb1 hb3 hb4
          go_wp2_with (fail)
          refine (right_any (a0 ++ a1) _).mono ?_
          rintro e w7 ⟨rfl, hb7⟩
          rw [R1.out]
          have hs7 := hb7.size
          have B7 := B6.trans (hb7.mono B6.size)
          have bytes7 := bytes2.kept hb7
          go_wp2_with (fail)
          refine (decode_any _ _ _ (isBytes_conv w7 (a0 ++ a1) _ _ (by simp) (by unfold maxLen; omega)) (by rw [← Lib.size_eq]; simp; omega)).mono ?_
          rintro e w8 ⟨rfl, hb8⟩
          rw [D1.out]
          have hs8 := hb8.size
          simp at hs8
          have B8 := (below_conv B7 B7.size _).trans (hb8.mono (by have := B7.size; simp; omega))
          have bytes8 := bytes7.kept ((below_conv (Below.refl _ w7) (Nat.le_refl _) _).trans (hb8.mono (by simp)))
          go_wp2_with (fail)
          refine (decode_any _ l2 _ bytes8 (by omega)).mono ?_
          rintro e w9 ⟨rfl, hb9⟩
          rw [D2.out]
          have B9 := B8.trans (hb9.mono B8.size)
          have bytes9 := bytes8.kept hb9
          have hcv := bytes9.conv
          go_wp2_with (fail)
          refine (right_any _ _).mono ?_
          rintro e w10 ⟨rfl, hb10⟩
          rw [R2.out]
          go_wp2
          go_ret
          exact ⟨by simp, B9.trans (hb10.mono B9.size)⟩
  -- go_wp2
  -- go_ret
  -- exact ⟨rfl, by repeat (first | exact Grown.refl _ | apply Grown.drew | apply Grown.alloc)⟩

set_option maxRecDepth 100000 in
theorem lifted (os : Os) (started : os.Started) (H : Type) (enc : TypeId × Value → H) :
    ReturnsInHanded {} Try.checked os 9 .any (Rows.utfJoinsSpec.pre6 enc Try.prog Try.f9 Rows.utfJoinsRow.domain false) (Rows.utfJoinsSpec.post enc Try.prog Try.f9 false true false false) := by
  refine returnsInHanded_of_change (C := Try.checked) own started (by kernel_rfl) Try.func9
    (ChangeSpec.witness6 (enc := enc) (C := Try.checked) false ⟨#[], #[.string ByteArray.empty, .string ByteArray.empty, .int .u8 0], []⟩ 8 (by kernel_rfl) (by kernel_rfl) (by kernel_rfl) (by kernel_rfl)) ?_
  intro W base args ds gs before hval0 hW hcnd _
  have hval : ∀ (j : Nat) t v, Try.f9.params[j]? = some t → args[j]? = some v → Value.okWide Try.prog W .any base t v := hval0
  have hW' := hW
  obtain ⟨p, q, hA0, hV, rfl, hfz, hnd⟩ := hW
  have hA : DataW.TrodAll enc Try.prog W 0 (fun _ => true) true Try.f9.params.toList args.toList ds p := hA0
  rw [Try.params9] at hA hval
  obtain ⟨v0, vs0, d0, ds0, p0, q0, hargs, rfl, rfl, h0, r0⟩ := trodAll_cons hA
  obtain ⟨v1, vs1, d1, ds1, p1, q1, rfl, rfl, rfl, h1, r1⟩ := trodAll_cons r0
  obtain ⟨v2, vs2, d2, ds2, p2, q2, rfl, rfl, rfl, h2, r2⟩ := trodAll_cons r1
  obtain ⟨rfl, rfl, rfl⟩ := trodAll_nil r2
  obtain rfl : args = #[v0, v1, v2] := by cases args; simp_all
  obtain ⟨rfl, rfl⟩ := trodVars_none hV
  obtain ⟨a0, rfl, rfl, rfl, w0⟩ := open_string Try.underlying9 (hval 0 9 v0 rfl rfl) h0
  obtain ⟨a1, rfl, rfl, rfl, w1⟩ := open_string Try.underlying9 (hval 1 9 v1 rfl rfl) h1
  obtain ⟨a2, rfl, rfl, rfl, w2⟩ := open_int Try.underlying5 (hval 2 5 v2 rfl rfl) h2
  clear hA0 hval0
  refine (walk a0 a1 a2 w0 w1 w2 W).mono fun e W' ⟨he, bel⟩ => ?_
  subst he
  exact ⟨_, rfl, _, _, _, [], _, [], hW', trodAll_mk1 (shut_bool Try.underlying4 _), (trodAll_cons_mk (shut_string Try.underlying9 w0) (trodAll_cons_mk (shut_string Try.underlying9 w1) (trodAll_cons_mk (shut_int Try.underlying5 w2) trodAll_mk0))), rfl, bel.frame _, fun h => by cases h⟩

theorem over : Rows.utfJoinsRow.holds Try.pinned (OpenSpec.ofChange Rows.utfJoinsSpec) :=
  OpenClaim.holds_of_wide 9 Try.f9 rfl rfl rfl rfl rfl rfl rfl ⟨rfl, rfl, rfl, rfl, rfl⟩ rfl rfl rfl rfl rfl (by kernel_rfl) Try.func9 (by kernel_rfl)
    (of_decide_eq_true (by kernel_rfl)) (by unfold Func.isWrapper; first | (rw [if_pos (by decide +kernel)]; kernel_rfl) | (rw [if_neg (by decide +kernel)]; exact ⟨rfl, rfl⟩))
    (fun os started H enc _ => lifted os started H enc)

/-- ████ THE STATEMENT ████ -/
theorem proved : Rows.UtfJoinsSaid :=
  over
end Go.Proofs.Ytafghfljbelgdaa.utfJoins
