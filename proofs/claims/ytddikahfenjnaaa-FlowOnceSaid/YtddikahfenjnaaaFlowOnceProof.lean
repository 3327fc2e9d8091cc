/-
  The law FlowOnce of flail/flaillaw18 answers true for every input, and changes nothing that was there. No condition.
-/
import Derived.Test.YtddikahfenjnaaaRows
import Derived.Test.YtddikahfenjnaaaFloLaw
import Derived.Test.YtddikahfenjnaaaFloFew
import Derived.WalkKit
import Derived.ProofKit
import Derived.OpenShut
import Derived.ShutString
import Derived.ChangeOld
import Derived.Below
namespace Go.Proofs.Ytddikahfenjnaaa.flowOnce
open Go.ChangeShapes Go.WideShapes Go.ChangeAt Go.RowKit
open Go.ChangeMaps (open_string shut_string)
set_option linter.unusedVariables false

theorem own : ownKnob Try.prog.godebug = none := by kernel_rfl
theorem laidOut : laidOutB Try.prog = true := by kernel_rfl

set_option maxRecDepth 100000 in
set_option maxHeartbeats 4000000 in
theorem walk (a0 : Option Addr) (len0 cap0 : Nat) (l0 : List ActP) (w : World) (w0 : IsActs w a0 len0 cap0 l0) :
    Calls Try.prog 6 #[.slice a0 len0 cap0] w fun e w' => e = .returned (.bool true) ∧ Below w.heap.size w w' := by
  have HL := Lib.hid w0
  have hll := w0.1
  have hm := w0.2.2.1
  have hlc := w0.2.1
  unfold maxLen at hm
  clear w0
  go_enter Try.func6, Try.ntmps6
  go_wp2_with (fail)
  refine (floAwake_any w).mono ?_
  rintro e w1 ⟨rfl, c1⟩
  have B1 := Lib.hid c1
  clear c1
  go_wp2_with (fail)
  refine (refFew18_any a0 len0 cap0 l0 w1 (HL.out.below B1.out (Nat.le_refl _))).mono ?_
  rintro e w2 ⟨⟨few, rfl, hfew⟩, c2⟩
  have B2 := Lib.hid (B1.out.trans (c2.mono B1.out.size))
  have HF := Lib.hid hfew
  clear c2 hfew
  cases few
  · go_wp2
    go_ret
    exact ⟨rfl, B2.out⟩
  obtain ⟨h60, h100⟩ := HF.out rfl
  have H100 := Lib.hid h100
  clear h100 HF
  go_wp2_with (fail)
  refine (newM_any w w2 Emp Lies.emp (Made.none B2.out)).mono ?_
  rintro e w3 ⟨g1, rfl, m3⟩
  have M3 := Lib.hid m3
  clear m3
  go_wp2_with (fail)
  refine (newM_any w w3 (Sep (FloO g1 flo0) Emp) (flo_lies g1 flo0 Lies.emp) M3.out).mono ?_
  rintro e w4 ⟨g2, rfl, m4⟩
  have M4 := Lib.hid m4
  clear m4
  go_wp2_with (fail)
  refine (newM_any w w4 (Sep (FloO g2 flo0) (Sep (FloO g1 flo0) Emp)) (flo_lies g2 flo0 (flo_lies g1 flo0 Lies.emp)) M4.out).mono ?_
  rintro e w5 ⟨g3, rfl, m5⟩
  obtain ⟨R, hR⟩ : ∃ R, R = Sep (FloO g2 flo0) (Sep (FloO g3 flo0) Emp) := ⟨_, rfl⟩
  have hRL : Lies R := by rw [hR]; exact flo_lies g2 flo0 (flo_lies g3 flo0 Lies.emp)
  have M5 := Lib.hid (show Flo w w5 g1 flo0 R by
    rw [hR]
    have h1 : Made w w5 (Sep (FloO g2 flo0) (Sep (FloO g3 flo0) (Sep (FloO g1 flo0) Emp))) := m5.turn
    obtain ⟨h0, F, ⟨F1, F2, a1, ⟨F3, F4, a3, ⟨F5, F6, a5, a6, d5, e5⟩, d3, e3⟩, d1, e1⟩, hB⟩ := h1
    refine ⟨h0, F, ⟨F5, fun k => F1 k ∨ F3 k ∨ F6 k, a5, ⟨F1, fun k => F3 k ∨ F6 k, a1, ⟨F3, F6, a3, a6, fun k x y => d3 k x ((e5 k).2 (.inr y)), fun _ => Iff.rfl⟩, fun k x y => d1 k x ((e3 k).2 (y.imp id (fun y => (e5 k).2 (.inr y)))), fun _ => Iff.rfl⟩, fun k x y => ?_, fun k => ?_⟩, hB⟩
    · rcases y with y | y | y
      · exact d1 k y ((e3 k).2 (.inr ((e5 k).2 (.inl x))))
      · exact d3 k y ((e5 k).2 (.inl x))
      · exact d5 k x y
    · rw [e1, e3, e5]
      exact ⟨fun h => h.elim (fun h => .inr (.inl h)) (fun h => h.elim (fun h => .inr (.inr (.inl h))) (fun h => h.elim .inl (fun h => .inr (.inr (.inr h))))), fun h => h.elim (fun h => .inr (.inr (.inl h))) (fun h => h.elim .inl (fun h => h.elim (fun h => .inr (.inl h)) (fun h => .inr (.inr (.inr h)))))⟩)
  clear m5
  have HRR := Lib.hid hR
  clear hR
  go_wp2
  go_loopw [8] (fun v wr => ∃ i : Nat, v = .int .i64 (i : Int) ∧ i ≤ len0 ∧ Hid (Flo w wr g1 (actsF flo0 (l0.take i)) R)) (fun v _ => len0 - (intOf v).toNat)
  case atStart => exact ⟨0, rfl, Nat.zero_le _, Lib.hid (by rw [List.take_zero]; exact M5.out)⟩
  case round =>
    obtain ⟨i, rfl, hi, HM⟩ := hrel
    by_cases hlt : i < len0
    · have hiL : i < l0.length := by omega
      obtain ⟨x, rfl, xc, xo⟩ := HL.out.2.2.2 i hiL
      obtain ⟨x0, x1, x2, x3⟩ := (xc.below HM.out.bel (Nat.le_refl _)).asked
      have HC := Lib.hid (doesM_any w wr g1 (actsF flo0 (l0.take i)) R hRL HM.out l0[i] (by
        have := acts_few l0 i (by omega) H100.out
        have := H100.out l0[i] (List.getElem_mem hiL)
        omega) xo)
      rw [acts_step flo0 l0 i hiL] at HC
      unfold aggA at HC
      obtain ⟨K, hK⟩ : ∃ K, l0[i].kind = K := ⟨_, rfl⟩
      obtain ⟨S, hS⟩ : ∃ S : ByteArray, (⟨l0[i].s.toArray⟩ : ByteArray) = S := ⟨_, rfl⟩
      obtain ⟨kp, hkp⟩ : ∃ K, l0[i].keep = K := ⟨_, rfl⟩
      obtain ⟨n, hn⟩ : ∃ K, l0[i].n = K := ⟨_, rfl⟩
      rw [hK, hS, hkp, hn] at HC
      rw [hK] at x0
      rw [hS] at x1
      rw [hkp] at x2
      rw [hn] at x3
      clear hK hS hkp hn xc xo
      go_wp2_with (go_at_call 12; refine HC.out.mono ?_; rintro e w5 ⟨rfl, m5⟩)
      go_roundw
      case rel => exact ⟨i + 1, by go_num, by omega, Lib.hid m5⟩
      case measure => simp [intOf]; omega
    · obtain rfl : i = len0 := by omega
      have e1 : l0.take i = l0 := List.take_of_length_le (by omega)
      have hsz := acts_few l0 i (by omega) H100.out
      have hag := again_acts l0
      rw [e1] at HM hsz
      obtain ⟨F, hF⟩ : ∃ F, actsF flo0 l0 = F := ⟨_, rfl⟩
      rw [hF] at HM hsz hag
      have htl : F.told.length ≤ 12000 := by
        unfold FloP.size at hsz; omega
      have HC := Lib.hid (textM_any w wr g1 F R hRL HM.out (by omega))
      obtain ⟨T, hT⟩ : ∃ T : ByteArray, (⟨F.told.toArray⟩ : ByteArray) = T := ⟨_, rfl⟩
      have hT2 : F.told = T.data.toList := by rw [← hT, List.toList_toArray]
      rw [hT] at HC
      have hts : T.size ≤ 12000 := by rw [Lib.size_eq, ← hT2]; exact htl
      have hz0 : flo0.size = 0 := rfl
      have C6 := fun w' h => Lib.hid (putM_any w w' g2 flo0 (Sep (FloO g3 flo0) Emp) (flo_lies g3 flo0 Lies.emp) h T true (by omega))
      rw [hT2] at hag
      have hsg := putL_size true T.data.toList flo0
      have hsh := putL_size false T.data.toList flo0
      have hth := thin_putL T.data.toList flo0 thin_flo0
      rw [← Lib.size_eq] at hsg hsh
      obtain ⟨G, hG⟩ : ∃ G, putL true flo0 T.data.toList = G := ⟨_, rfl⟩
      obtain ⟨H, hH⟩ : ∃ H, putL false flo0 T.data.toList = H := ⟨_, rfl⟩
      have C7 := fun w' h => Lib.hid (putM_any w w' g3 flo0 (Sep (FloO g2 G) Emp) (flo_lies g2 G Lies.emp) h T false (by omega))
      rw [hG] at hag C6 hsg
      rw [hH] at C7 hsh hth
      have C8 := fun w' h => Lib.hid (textM_any w w' g3 H (Sep (FloO g2 G) Emp) (flo_lies g2 G Lies.emp) h (by omega))
      have C9 := fun w' h => Lib.hid (textM_any w w' g2 G (Sep (FloO g3 H) Emp) (flo_lies g3 H Lies.emp) h (by omega))
      rw [hag, show (⟨T.data.toList.toArray⟩ : ByteArray) = T from str_ext (by rw [List.toList_toArray])] at C9
      obtain ⟨X, hX⟩ : ∃ X : ByteArray, (⟨H.told.toArray⟩ : ByteArray) = X := ⟨_, rfl⟩
      have hX2 : H.told = X.data.toList := by rw [← hX, List.toList_toArray]
      rw [hX] at C8
      have hxs : X.size ≤ 12000 := by
        rw [Lib.size_eq, ← hX2]
        have : H.told.length ≤ H.size := by unfold FloP.size; omega
        omega
      have HO := Lib.hid (show ∀ (k : Nat) (h : k < X.size), blkB X[k] = true → X[k] = 32 from fun k h => hth.only X[k] (by rw [hX2]; exact List.getElem_mem (by rw [← Lib.size_eq]; exact h)))
      have HA := Lib.hid (show ∀ (k : Nat) (h : k + 1 < X.size), X[k] = 32 → X[k + 1] ≠ 32 from fun k h e e2 => by
        refine hth.apart k ?_ ?_
        · rw [hX2, List.getElem?_eq_getElem (by rw [← Lib.size_eq]; omega)]
          exact congrArg some e
        · rw [hX2, List.getElem?_eq_getElem (by rw [← Lib.size_eq]; omega)]
          exact congrArg some e2)
      clear hT hT2 htl hsz hF e1 H100 HL hag hsg hsh hth hG hH hX hX2 hz0
      go_wp2_with (fail)
      refine HC.out.mono ?_
      rintro e w6 ⟨rfl, m6⟩
      have M6 := Lib.hid (show Flo w w6 g2 flo0 (Sep (FloO g3 flo0) Emp) by have := m6.rest; rw [HRR.out] at this; exact this)
      clear m6
      go_wp2_with (fail)
      refine (C6 _ M6.out).out.mono ?_
      rintro e w7 ⟨rfl, m7⟩
      have M7 := Lib.hid m7.turn
      clear m7
      go_wp2_with (fail)
      refine (C7 _ M7.out).out.mono ?_
      rintro e w8 ⟨rfl, m8⟩
      have M8 := Lib.hid m8
      clear m8
      go_wp2_with (fail)
      refine (C8 _ M8.out).out.mono ?_
      rintro e w9 ⟨rfl, m9⟩
      have M9 := Lib.hid m9.turn
      clear m9
      go_wp2
      go_loopw [11] (fun v w10 => ∃ j : Nat, v = .int .i64 (j : Int) ∧ j ≤ X.size ∧ w9 = w10) (fun v _ => X.size - (intOf v).toNat)
      case atStart => exact ⟨0, rfl, Nat.zero_le _, rfl⟩
      case round =>
        obtain ⟨j, rfl, hj, rfl⟩ := hrel
        by_cases hjt : j < X.size
        · have z1 := HO.out j hjt
          have z2 := fun (k : Nat) (hk : k + 1 = j) => HA.out k (by omega)
          obtain ⟨c, hc⟩ : ∃ c, X[j] = c := ⟨_, rfl⟩
          obtain ⟨q, hq⟩ : ∃ q : Int, ((c.toNat : Nat) : Int) = q := ⟨_, rfl⟩
          have HC2 := fun w => Lib.hid (blank18_any c q w hq)
          have hsq : ((X[j].toNat : Nat) : Int) = q := by rw [hc]; exact hq
          have h32 : (q == 32) = (c == 32) := by rw [← hq]; exact u8_test c 32 (by decide)
          rw [hc] at z1
          cases hb : blkB c
          · rw [hb] at HC2
            have hn32 : c ≠ 32 := fun e => by rw [e] at hb; cases hb
            have b32 : (q == 32) = false := by rw [h32]; exact beq_eq_false_iff_ne.2 hn32
            clear z1 z2 h32 hq hb hn32 hc
            by_cases hj0 : 0 < j
            · obtain ⟨k, hk⟩ : ∃ k : Nat, (j : Int) - 1 = (k : Int) := ⟨j - 1, by omega⟩
              have d0 : decide ((0 : Int) < (j : Int)) = true := decide_eq_true (by omega)
              go_wp2_with (go_at_call 15; refine (HC2 _).out.mono ?_; rintro e w11 ⟨rfl, rfl⟩)
              go_roundw
              case rel => exact ⟨j + 1, by go_num, by omega, trivial⟩
              case measure => simp [intOf]; omega
            · obtain rfl : j = 0 := by omega
              go_wp2_with (go_at_call 15; refine (HC2 _).out.mono ?_; rintro e w11 ⟨rfl, rfl⟩)
              go_roundw
              case rel => exact ⟨1, by go_num, by omega, trivial⟩
              case measure => simp [intOf]; omega
          · rw [hb] at HC2
            have e32 := z1 hb
            have b32 : (q == 32) = true := by rw [h32, e32]; rfl
            have b33 : (q != 32) = false := by rw [bne, b32]; rfl
            by_cases hj0 : 0 < j
            · obtain ⟨k, hk⟩ : ∃ k : Nat, (j : Int) - 1 = (k : Int) := ⟨j - 1, by omega⟩
              have hkj : k + 1 = j := by omega
              have hkx : k < X.size := by omega
              have z3 : X[k] ≠ 32 := fun e => by
                subst hkj
                exact z2 k rfl e (hc.trans e32)
              have b34 : (((X[k].toNat : Nat) : Int) == 32) = false := by
                rw [show (((X[k].toNat : Nat) : Int) == 32) = (X[k] == 32) from u8_test X[k] 32 (by decide)]
                exact beq_eq_false_iff_ne.2 z3
              have d0 : decide ((0 : Int) < (j : Int)) = true := decide_eq_true (by omega)
              clear z1 z2 h32 hq hb e32 hc z3
              go_wp2_with (go_at_call 15; refine (HC2 _).out.mono ?_; rintro e w11 ⟨rfl, rfl⟩)
              go_roundw
              case rel => exact ⟨j + 1, by go_num, by omega, trivial⟩
              case measure => simp [intOf]; omega
            · obtain rfl : j = 0 := by omega
              clear z1 z2 h32 hq hb e32 hc
              go_wp2_with (go_at_call 15; refine (HC2 _).out.mono ?_; rintro e w11 ⟨rfl, rfl⟩)
              go_roundw
              case rel => exact ⟨1, by go_num, by omega, trivial⟩
              case measure => simp [intOf]; omega
        · obtain rfl : j = X.size := by omega
          go_wp2_with (fail)
          refine (C9 _ M9.out).out.mono ?_
          rintro e w11 ⟨rfl, m11⟩
          go_wp2
          go_ret
          exact ⟨ret_bool (by simp), m11.bel⟩

set_option maxRecDepth 100000 in
theorem lifted (os : Os) (started : os.Started) (H : Type) (enc : TypeId × Value → H) :
    ReturnsInHanded {} Try.checked os 6 .any (Rows.flowOnceSpec.pre6 enc Try.prog Try.f6 Rows.flowOnceRow.domain false) (Rows.flowOnceSpec.post enc Try.prog Try.f6 false true false false) := by
  refine returnsInHanded_of_change (C := Try.checked) own started (by kernel_rfl) Try.func6
    (ChangeSpec.witness6 (enc := enc) (C := Try.checked) false ⟨#[], #[.slice none 0 0], []⟩ 8 (by kernel_rfl) (by kernel_rfl) (by kernel_rfl) (by kernel_rfl)) ?_
  intro W base args ds gs before hval0 hW hcnd _
  have hval : ∀ (j : Nat) t v, Try.f6.params[j]? = some t → args[j]? = some v → Value.okWide Try.prog W .any base t v := hval0
  have hW' := hW
  obtain ⟨p, q, hA0, hV, rfl, hfz, hnd⟩ := hW
  have hA : DataW.TrodAll enc Try.prog W 0 (fun _ => true) true Try.f6.params.toList args.toList ds p := hA0
  rw [Try.params6] at hA hval
  obtain ⟨v0, vs0, d0, ds0, p0, q0, hargs, rfl, rfl, h0, r0⟩ := trodAll_cons hA
  obtain ⟨rfl, rfl, rfl⟩ := trodAll_nil r0
  obtain rfl : args = #[v0] := by cases args; simp_all
  obtain ⟨rfl, rfl⟩ := trodVars_none hV
  obtain ⟨a0, len0, cap0, rfl⟩ := okWide_slice Try.underlying22 (hval 0 22 v0 rfl rfl)
  have k0 := h0
  have lt0 : ∀ x ∈ p0, x.block < W.heap.size := by obtain ⟨m, hm⟩ := k0; exact DataW.trod_lt m _ _ _ hm
  obtain ⟨l0, w0⟩ : ∃ l, IsActs W a0 len0 cap0 l := by
    obtain ⟨fuel, hf⟩ := h0
    exact isActs_arg (by simp [Value.cells]) hf
  clear hA0 hval0
  refine (walk a0 len0 cap0 l0 W w0).mono fun e W' ⟨he, bel⟩ => ?_
  subst he
  exact ⟨_, rfl, _, _, _, [], _, [], hW', trodAll_mk1 (shut_bool Try.underlying4 _), (trodAll_cons_mk (Below.trod laidOut (by kernel_rfl) (of_decide_eq_true (by kernel_rfl)) k0 bel lt0) trodAll_mk0), rfl, bel.frame _, fun h => by cases h⟩

theorem over : Rows.flowOnceRow.holds Try.pinned (OpenSpec.ofChange Rows.flowOnceSpec) :=
  OpenClaim.holds_of_wide 6 Try.f6 rfl rfl rfl rfl rfl rfl rfl ⟨rfl, rfl, rfl, rfl, rfl⟩ rfl rfl rfl rfl rfl (by kernel_rfl) Try.func6 (by kernel_rfl)
    (of_decide_eq_true (by kernel_rfl)) (by unfold Func.isWrapper; first | (rw [if_pos (by decide +kernel)]; kernel_rfl) | (rw [if_neg (by decide +kernel)]; exact ⟨rfl, rfl⟩))
    (fun os started H enc _ => lifted os started H enc)

/-- the statement -/
theorem proved : Rows.FlowOnceSaid := over
end Go.Proofs.Ytddikahfenjnaaa.flowOnce
