/-
  The law FlowParts of flail/flaillaw18 answers true for every input, and changes nothing that was there. No condition.
-/
import Derived.Test.YtddikahfenjnaaaRows
import Derived.Test.YtddikahfenjnaaaFloLaw
import Derived.Test.YtddikahfenjnaaaFloFew
import Derived.WalkKit
import Derived.ProofKit
import Derived.OpenShut
import Derived.ShutString
import Derived.ChangeOld
import Derived.Below
namespace Go.Proofs.Ytddikahfenjnaaa.flowParts
open Go.ChangeShapes Go.WideShapes Go.ChangeAt Go.RowKit
open Go.ChangeMaps (open_string shut_string)
set_option linter.unusedVariables false

theorem own : ownKnob Try.prog.godebug = none := by kernel_rfl
theorem laidOut : laidOutB Try.prog = true := by kernel_rfl

theorem put_two (keep : Bool) (f : FloP) (s : ByteArray) (k : Nat) : putL keep (putL keep f (s.extract 0 k).data.toList) (s.extract k s.size).data.toList = putL keep f s.data.toList := by
  rw [← putL_app, Lib.extract_data, Lib.extract_data, List.drop_zero, Nat.sub_zero]
  rw [List.take_of_length_le (show (s.data.toList.drop k).length ≤ s.size - k by rw [List.length_drop, ← Lib.size_eq]; exact Nat.le_refl _), List.take_append_drop]
set_option maxRecDepth 100000 in
set_option maxHeartbeats 4000000 in
theorem walk (a0 : Option Addr) (len0 cap0 : Nat) (l0 : List ActP) (a1 : ByteArray) (a2 : Int) (a3 : Bool) (w : World) (w0 : IsActs w a0 len0 cap0 l0) (w1 : a1.size ≤ maxLen) (w2 : (Lit.int .u8 a2).wf = true) :
    Calls Try.prog 8 #[.slice a0 len0 cap0, .string a1, .int .u8 a2, .bool a3] w fun e w' => e = .returned (.bool true) ∧ Below w.heap.size w w' := by
  have hb2 : 0 ≤ a2 ∧ a2 ≤ 255 := by simpa [Lit.wf, IntKind.min, IntKind.max, IntKind.signed, IntKind.bits] using w2
  have HL := Lib.hid w0
  have hll := w0.1
  have hm := w0.2.2.1
  have hlc := w0.2.1
  unfold maxLen at hm
  clear w0 w2
  try clear w1
  go_enter Try.func8, Try.ntmps8
  go_wp2_with (fail)
  refine (floAwake_any w).mono ?_
  rintro e w1 ⟨rfl, c1⟩
  have B1 := Lib.hid c1
  clear c1
  go_wp2_with (fail)
  refine (refFew18_any a0 len0 cap0 l0 w1 (HL.out.below B1.out (Nat.le_refl _))).mono ?_
  rintro e w2 ⟨⟨few, rfl, hfew⟩, c2⟩
  have B2 := Lib.hid (B1.out.trans (c2.mono B1.out.size))
  have HF := Lib.hid hfew
  clear c2 hfew
  cases few
  · go_wp2
    go_ret
    exact ⟨rfl, B2.out⟩
  by_cases hlen : 100 < a1.size
  · have d0 : decide ((100 : Int) < (a1.size : Int)) = true := decide_eq_true (by omega)
    clear hlen
    go_wp2
    go_ret
    exact ⟨rfl, B2.out⟩
  have d0 : decide ((100 : Int) < (a1.size : Int)) = false := decide_eq_false (by omega)
  obtain ⟨h60, h100⟩ := HF.out rfl
  have H100 := Lib.hid h100
  clear h100 HF
  go_wp2_with (fail)
  refine (newM_any w w2 Emp Lies.emp (Made.none B2.out)).mono ?_
  rintro e w3 ⟨g1, rfl, m3⟩
  have M3 := Lib.hid m3
  clear m3
  go_wp2_with (fail)
  refine (newM_any w w3 (Sep (FloO g1 flo0) Emp) (flo_lies g1 flo0 Lies.emp) M3.out).mono ?_
  rintro e w4 ⟨g2, rfl, m4⟩
  have M4 := Lib.hid (show Flo w w4 g1 flo0 (Sep (FloO g2 flo0) Emp) from m4.turn)
  clear m4
  go_wp2
  clear d0
  go_loopw [13] (fun v wr => ∃ i : Nat, v = .int .i64 (i : Int) ∧ i ≤ len0 ∧ Hid (Flo w wr g1 (actsF flo0 (l0.take i)) (Sep (FloO g2 (actsF flo0 (l0.take i))) Emp))) (fun v _ => len0 - (intOf v).toNat)
  case atStart => exact ⟨0, rfl, Nat.zero_le _, Lib.hid (by rw [List.take_zero]; exact M4.out)⟩
  case round =>
    obtain ⟨i, rfl, hi, HM⟩ := hrel
    by_cases hlt : i < len0
    · have hiL : i < l0.length := by omega
      obtain ⟨x, rfl, xc, xo⟩ := HL.out.2.2.2 i hiL
      obtain ⟨x0, x1, x2, x3⟩ := (xc.below HM.out.bel (Nat.le_refl _)).asked
      have hsa : (actsF flo0 (l0.take i)).size + l0[i].s.length ≤ 1073741824 := by
        have := acts_few l0 i (by omega) H100.out
        have := H100.out l0[i] (List.getElem_mem hiL)
        omega
      have hstep := acts_step flo0 l0 i hiL
      obtain ⟨G, hG⟩ : ∃ G, actsF flo0 (l0.take i) = G := ⟨_, rfl⟩
      rw [hG] at hstep hsa HM
      obtain ⟨G2, hG2⟩ : ∃ G2, actsF flo0 (l0.take (i + 1)) = G2 := ⟨_, rfl⟩
      rw [hG2] at hstep
      have HC := Lib.hid (doesM_any w wr g1 G (Sep (FloO g2 G) Emp) (flo_lies g2 G Lies.emp) HM.out l0[i] hsa xo)
      rw [hstep] at HC
      have HD := fun w' h => Lib.hid (doesM_any w w' g2 G (Sep (FloO g1 G2) Emp) (flo_lies g1 G2 Lies.emp) h l0[i] hsa xo)
      rw [hstep] at HD
      unfold aggA at HC HD
      have HXC := Lib.hid xc
      have HG2 := Lib.hid hG2
      obtain ⟨K, hK⟩ : ∃ K, l0[i].kind = K := ⟨_, rfl⟩
      obtain ⟨S, hS⟩ : ∃ S : ByteArray, (⟨l0[i].s.toArray⟩ : ByteArray) = S := ⟨_, rfl⟩
      obtain ⟨kp, hkp⟩ : ∃ K, l0[i].keep = K := ⟨_, rfl⟩
      obtain ⟨n, hn⟩ : ∃ K, l0[i].n = K := ⟨_, rfl⟩
      have HX0 := Lib.hid (show ∀ u : World, Below w.heap.size w u → u.cell? (x.add (i * 4)) = some (.int .i64 K) ∧ u.cell? ⟨(x.add (i * 4)).block, (x.add (i * 4)).off + 1, none⟩ = some (.string S) ∧ u.cell? ⟨(x.add (i * 4)).block, (x.add (i * 4)).off + 2, none⟩ = some (.bool kp) ∧ u.cell? ⟨(x.add (i * 4)).block, (x.add (i * 4)).off + 3, none⟩ = some (.int .i64 n) from fun u hu => by
        have := (HXC.out.below hu (Nat.le_refl _)).asked
        rw [hK, hS, hkp, hn] at this
        exact this)
      rw [hK, hS, hkp, hn] at HC
      simp only [hK, hS, hkp, hn] at HD
      rw [hK] at x0
      rw [hS] at x1
      rw [hkp] at x2
      rw [hn] at x3
      clear hK hS hkp hn xc xo hstep hG hG2 hsa HXC
      go_wp2_with (fail)
      refine HC.out.mono ?_
      rintro e w5 ⟨rfl, m5⟩
      obtain ⟨x0, x1, x2, x3⟩ := HX0.out _ m5.bel
      have M5 := Lib.hid m5.turn
      clear m5
      go_wp2_with (fail)
      refine (HD _ M5.out).out.mono ?_
      rintro e w6 ⟨rfl, m6⟩
      have M6 := Lib.hid m6.turn
      clear m6 x0 x1 x2 x3
      go_wp2
      go_roundw
      case rel => exact ⟨i + 1, by go_num, by omega, Lib.hid (by rw [HG2.out]; exact M6.out)⟩
      case measure => simp [intOf]; omega
    · obtain rfl : i = len0 := by omega
      have e1 : l0.take i = l0 := List.take_of_length_le (by omega)
      have hsz := acts_few l0 i (by omega) H100.out
      rw [e1] at HM hsz
      obtain ⟨F, hF⟩ : ∃ F, actsF flo0 l0 = F := ⟨_, rfl⟩
      rw [hF] at HM hsz
      obtain ⟨K, hK⟩ : ∃ K : Nat, a2 % ((a1.size : Int) + 1) = (K : Int) := ⟨(a2 % ((a1.size : Int) + 1)).toNat, by
        have := Int.emod_nonneg a2 (show ((a1.size : Int) + 1) ≠ 0 by omega)
        omega⟩
      have hK1 : K ≤ a1.size := by
        have := Int.emod_lt_of_pos a2 (show (0 : Int) < (a1.size : Int) + 1 by omega)
        omega
      have z1 := putL_size a3 a1.data.toList F
      have z2 := putL_size a3 (a1.extract 0 K).data.toList F
      have e2 := put_two a3 F a1 K
      rw [← Lib.size_eq] at z1 z2
      have z3 : (a1.extract 0 K).size ≤ a1.size := by rw [ByteArray.size_extract]; omega
      have z4 : (a1.extract K a1.size).size ≤ a1.size := by rw [ByteArray.size_extract]; omega
      obtain ⟨F1, hF1⟩ : ∃ F1, putL a3 F (a1.extract 0 K).data.toList = F1 := ⟨_, rfl⟩
      obtain ⟨F2, hF2⟩ : ∃ F2, putL a3 F a1.data.toList = F2 := ⟨_, rfl⟩
      rw [hF2] at z1
      rw [hF1] at z2
      rw [hF1, hF2] at e2
      have sx : (⟨#[120]⟩ : ByteArray).size = 1 := rfl
      have z5 := putL_size a3 [120] F2
      obtain ⟨F3, hF3⟩ : ∃ F3, putL a3 F2 [120] = F3 := ⟨_, rfl⟩
      rw [hF3] at z5
      simp only [List.length_singleton] at z5
      have C1 := fun w' h => Lib.hid (putM_any w w' g1 F (Sep (FloO g2 F) Emp) (flo_lies g2 F Lies.emp) h a1 a3 (by omega))
      have C2 := fun w' h => Lib.hid (putM_any w w' g2 F (Sep (FloO g1 F2) Emp) (flo_lies g1 F2 Lies.emp) h (a1.extract 0 K) a3 (by omega))
      have C3 := fun w' h => Lib.hid (putM_any w w' g2 F1 (Sep (FloO g1 F2) Emp) (flo_lies g1 F2 Lies.emp) h (a1.extract K a1.size) a3 (by omega))
      have C4 := fun w' h => Lib.hid (putM_any w w' g2 F2 (Sep (FloO g1 F2) Emp) (flo_lies g1 F2 Lies.emp) h ⟨#[]⟩ (!a3) (by have : (⟨#[]⟩ : ByteArray).size = 0 := rfl; omega))
      have C5 := fun w' h => Lib.hid (textM_any w w' g1 F2 (Sep (FloO g2 F2) Emp) (flo_lies g2 F2 Lies.emp) h (by omega))
      have C6 := fun w' h => Lib.hid (textM_any w w' g2 F2 (Sep (FloO g1 F2) Emp) (flo_lies g1 F2 Lies.emp) h (by omega))
      have C7 := fun w' h => Lib.hid (putM_any w w' g1 F2 (Sep (FloO g2 F2) Emp) (flo_lies g2 F2 Lies.emp) h ⟨#[120]⟩ a3 (by omega))
      have C8 := fun w' h => Lib.hid (putM_any w w' g2 F2 (Sep (FloO g1 F3) Emp) (flo_lies g1 F3 Lies.emp) h ⟨#[120]⟩ a3 (by omega))
      have C9 := fun w' h => Lib.hid (textM_any w w' g1 F3 (Sep (FloO g2 F3) Emp) (flo_lies g2 F3 Lies.emp) h (by omega))
      have C10 := fun w' h => Lib.hid (textM_any w w' g2 F3 (Sep (FloO g1 F3) Emp) (flo_lies g1 F3 Lies.emp) h (by omega))
      rw [hF2] at C1
      rw [hF1] at C2
      rw [e2] at C3
      rw [show putL (!a3) F2 (⟨#[]⟩ : ByteArray).data.toList = F2 from rfl] at C4
      rw [show putL a3 F2 (⟨#[120]⟩ : ByteArray).data.toList = F3 from hF3] at C7 C8
      obtain ⟨T, hT⟩ : ∃ T : ByteArray, (⟨F2.told.toArray⟩ : ByteArray) = T := ⟨_, rfl⟩
      obtain ⟨U, hU⟩ : ∃ U : ByteArray, (⟨F3.told.toArray⟩ : ByteArray) = U := ⟨_, rfl⟩
      rw [hT] at C5 C6
      rw [hU] at C9 C10
      have i1 : (K : Int) ≤ (a1.size : Int) := by omega
      clear hT hU hsz hF e1 H100 HL z1 z2 z3 z4 z5 e2 hF1 hF2 hF3 sx
      go_wp2_with (fail)
      refine (C1 _ HM.out).out.mono ?_
      rintro e w6 ⟨rfl, m6⟩
      have M6 := Lib.hid m6.turn
      clear m6
      go_wp2_with (fail)
      refine (C2 _ M6.out).out.mono ?_
      rintro e w7 ⟨rfl, m7⟩
      have M7 := Lib.hid m7
      clear m7
      go_wp2_with (fail)
      refine (C3 _ M7.out).out.mono ?_
      rintro e w8 ⟨rfl, m8⟩
      have M8 := Lib.hid m8
      clear m8
      go_wp2_with (fail)
      refine (C4 _ M8.out).out.mono ?_
      rintro e w9 ⟨rfl, m9⟩
      have M9 := Lib.hid m9.turn
      clear m9
      go_wp2_with (fail)
      refine (C5 _ M9.out).out.mono ?_
      rintro e w10 ⟨rfl, m10⟩
      have M10 := Lib.hid m10.turn
      clear m10
      go_wp2_with (fail)
      refine (C6 _ M10.out).out.mono ?_
      rintro e w11 ⟨rfl, m11⟩
      have M11 := Lib.hid m11.turn
      clear m11
      go_wp2_with (fail)
      refine (C7 _ M11.out).out.mono ?_
      rintro e w12 ⟨rfl, m12⟩
      have M12 := Lib.hid m12.turn
      clear m12
      go_wp2_with (fail)
      refine (C8 _ M12.out).out.mono ?_
      rintro e w13 ⟨rfl, m13⟩
      have M13 := Lib.hid m13.turn
      clear m13
      go_wp2_with (fail)
      refine (C9 _ M13.out).out.mono ?_
      rintro e w14 ⟨rfl, m14⟩
      have M14 := Lib.hid m14.turn
      clear m14
      go_wp2_with (fail)
      refine (C10 _ M14.out).out.mono ?_
      rintro e w15 ⟨rfl, m15⟩
      go_wp2
      go_ret
      exact ⟨ret_bool (by simp), m15.bel⟩

set_option maxRecDepth 100000 in
theorem lifted (os : Os) (started : os.Started) (H : Type) (enc : TypeId × Value → H) :
    ReturnsInHanded {} Try.checked os 8 .any (Rows.flowPartsSpec.pre6 enc Try.prog Try.f8 Rows.flowPartsRow.domain false) (Rows.flowPartsSpec.post enc Try.prog Try.f8 false true false false) := by
  refine returnsInHanded_of_change (C := Try.checked) own started (by kernel_rfl) Try.func8
    (ChangeSpec.witness6 (enc := enc) (C := Try.checked) false ⟨#[], #[.slice none 0 0, .string ⟨#[]⟩, .int .u8 0, .bool false], []⟩ 8 (by kernel_rfl) (by kernel_rfl) (by kernel_rfl) (by kernel_rfl)) ?_
  intro W base args ds gs before hval0 hW hcnd _
  have hval : ∀ (j : Nat) t v, Try.f8.params[j]? = some t → args[j]? = some v → Value.okWide Try.prog W .any base t v := hval0
  have hW' := hW
  obtain ⟨p, q, hA0, hV, rfl, hfz, hnd⟩ := hW
  have hA : DataW.TrodAll enc Try.prog W 0 (fun _ => true) true Try.f8.params.toList args.toList ds p := hA0
  rw [Try.params8] at hA hval
  obtain ⟨v0, vs0, d0, ds0, p0, q0, hargs, rfl, rfl, h0, r0⟩ := trodAll_cons hA
  obtain ⟨v1, vs1, d1, ds1, p1, q1, rfl, rfl, rfl, h1, r1⟩ := trodAll_cons r0
  obtain ⟨v2, vs2, d2, ds2, p2, q2, rfl, rfl, rfl, h2, r2⟩ := trodAll_cons r1
  obtain ⟨v3, vs3, d3, ds3, p3, q3, rfl, rfl, rfl, h3, r3⟩ := trodAll_cons r2
  obtain ⟨rfl, rfl, rfl⟩ := trodAll_nil r3
  obtain rfl : args = #[v0, v1, v2, v3] := by cases args; simp_all
  obtain ⟨rfl, rfl⟩ := trodVars_none hV
  obtain ⟨a0, len0, cap0, rfl⟩ := okWide_slice Try.underlying22 (hval 0 22 v0 rfl rfl)
  have k0 := h0
  have lt0 : ∀ x ∈ p0, x.block < W.heap.size := by obtain ⟨m, hm⟩ := k0; exact DataW.trod_lt m _ _ _ hm
  obtain ⟨l0, w0⟩ : ∃ l, IsActs W a0 len0 cap0 l := by
    obtain ⟨fuel, hf⟩ := h0
    exact isActs_arg (by simp [Value.cells]) hf
  obtain ⟨a1, rfl, rfl, rfl, w1⟩ := open_string Try.underlying9 (hval 1 9 v1 rfl rfl) h1
  obtain ⟨a2, rfl, rfl, rfl, w2⟩ := open_int Try.underlying5 (hval 2 5 v2 rfl rfl) h2
  obtain ⟨a3, rfl, rfl, rfl⟩ := open_bool Try.underlying4 (hval 3 4 v3 rfl rfl) h3
  clear hA0 hval0
  refine (walk a0 len0 cap0 l0 a1 a2 a3 W w0 w1 w2).mono fun e W' ⟨he, bel⟩ => ?_
  subst he
  exact ⟨_, rfl, _, _, _, [], _, [], hW', trodAll_mk1 (shut_bool Try.underlying4 _), (trodAll_cons_mk (Below.trod laidOut (by kernel_rfl) (of_decide_eq_true (by kernel_rfl)) k0 bel lt0) (trodAll_cons_mk (shut_string Try.underlying9 w1) (trodAll_cons_mk (shut_int Try.underlying5 w2) (trodAll_cons_mk (shut_bool Try.underlying4 a3) trodAll_mk0)))), rfl, bel.frame _, fun h => by cases h⟩

theorem over : Rows.flowPartsRow.holds Try.pinned (OpenSpec.ofChange Rows.flowPartsSpec) :=
  OpenClaim.holds_of_wide 8 Try.f8 rfl rfl rfl rfl rfl rfl rfl ⟨rfl, rfl, rfl, rfl, rfl⟩ rfl rfl rfl rfl rfl (by kernel_rfl) Try.func8 (by kernel_rfl)
    (of_decide_eq_true (by kernel_rfl)) (by unfold Func.isWrapper; first | (rw [if_pos (by decide +kernel)]; kernel_rfl) | (rw [if_neg (by decide +kernel)]; exact ⟨rfl, rfl⟩))
    (fun os started H enc _ => lifted os started H enc)

/-- the statement -/
theorem proved : Rows.FlowPartsSaid := over
end Go.Proofs.Ytddikahfenjnaaa.flowParts
