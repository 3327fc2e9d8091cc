/-
  The law NumberZeros of flail/flaillaw04 answers true for every input, and changes nothing that was there. Condition, which the card ties to the program's text: when the call begins, the package variable that the row lists holds what that text lays in it (flail/number.others).
-/
import Derived.Test.YtionbaedddnggaaDoorRows
import Derived.Test.YtionbaedddnggaaDoorNumZer
import Derived.Test.YtionbaedddnggaaDoorCards
import Derived.Test.YtionbaedddnggaaDoorNumLaid
import Derived.WalkKit
import Derived.ProofKit
import Derived.OpenShut
import Derived.ShutString
import Derived.ChangeOld
import Derived.Below
namespace Go.Proofs.YtionbaedddnggaaDoor.numberZeros
open Go.ChangeShapes Go.WideShapes Go.ChangeAt Go.RowKit
open Go.ChangeMaps (open_string shut_string)
set_option linter.unusedVariables false

theorem own : ownKnob Tryd.prog.godebug = none := by kernel_rfl
theorem laidOut : laidOutB Tryd.prog = true := by kernel_rfl

/-- WHAT THE WALK IS TOLD OF A SLICE OF INTEGERS THAT CAME IN: it is nil; or it leads to a row of 'cap' cells, the numbers 'zs' (the first 'len' are its elements, the rest its spare room), each fitting its kind. -/
def IsRow (k : IntKind) (w : World) (a : Option Addr) (len cap : Nat) (zs : List Int) : Prop :=
  (a = none ∧ len = 0 ∧ cap = 0 ∧ zs = []) ∨
  ∃ x, a = some x ∧ len ≤ cap ∧ cap ≤ maxLen ∧ zs.length = cap ∧ (∀ i, i < zs.length → w.cell? (x.add i) = some (.int k (zs.getD i 0))) ∧ ∀ n ∈ zs, (Lit.int k n).wf = true

set_option maxRecDepth 100000 in
set_option maxHeartbeats 1000000 in
theorem walk (a0 : Option Addr) (len0 cap0 : Nat) (z0 : List Int) (a1 : Int) (w : World) (hT : TabAt w) (w0 : IsRow .u8 w a0 len0 cap0 z0) (w1 : (Lit.int .u8 a1).wf = true) :
    Calls Tryd.prog 5 #[.slice a0 len0 cap0, .int .u8 a1] w fun e w' => e = .returned (.bool true) ∧ Below w.heap.size w w' := by
  have hb1 : 0 ≤ a1 ∧ a1 ≤ 255 := by simpa [Lit.wf, IntKind.min, IntKind.max, IntKind.signed, IntKind.bits] using w1
  obtain ⟨h0, h1⟩ := hb1
  clear w1
  obtain ⟨z, rfl⟩ : ∃ z : Nat, a1 = (z : Int) := ⟨a1.toNat, by omega⟩
  by_cases hl60 : 60 < len0
  · have l1 : (60 : Int) < (len0 : Int) := by omega
    clear w0
    go_enter Tryd.func5, Tryd.ntmps5
    go_wp2_with (fail)
    refine (awakeB w hT).mono ?_
    rintro e w1 ⟨rfl, hb1⟩
    go_wp2
    go_ret
    exact ⟨rfl, hb1⟩
  by_cases hl0 : len0 = 0
  · subst hl0
    clear w0 hl60
    go_enter Tryd.func5, Tryd.ntmps5
    go_wp2_with (fail)
    refine (awakeB w hT).mono ?_
    rintro e w1 ⟨rfl, hb1⟩
    go_wp2
    go_ret
    exact ⟨rfl, hb1⟩
  rcases w0 with ⟨rfl, h, -, -⟩ | ⟨x, rfl, hlc, hcm, hzl, hcell, hwf⟩
  · exact absurd h hl0
  have hl1 : ((len0 : Int) == 0) = false := beq_eq_false_iff_ne.2 (by omega)
  have hl2 : ¬ (60 : Int) < (len0 : Int) := by omega
  have hq : ∀ i, i < len0 → 0 ≤ z0.getD i 0 ∧ z0.getD i 0 < 256 := fun i hi => by
    have hi' : i < z0.length := by omega
    have hw := hwf z0[i] (List.getElem_mem hi')
    have hb : 0 ≤ z0[i] ∧ z0[i] ≤ 255 := by simpa [Lit.wf, IntKind.min, IntKind.max, IntKind.signed, IntKind.bits] using hw
    rw [List.getD_eq_getElem?_getD, List.getElem?_eq_getElem hi']
    exact ⟨hb.1, by have := hb.2; show z0[i] < 256; omega⟩
  have HQ := Lib.hid hq
  have hlow : x.block < w.heap.size := by
    have := low_of_cell (hcell 0 (by omega))
    rwa [add_block] at this
  have HC0 : Hid (∀ W : World, Below w.heap.size w W → ∀ i, i < len0 → W.cell? (x.add i) = some (.int .u8 (z0.getD i 0))) := Lib.hid (fun W hW i hi => by
    rw [hW.cell (p := x.add i) (by rw [add_block]; exact hlow)]; exact hcell i (by omega))
  have hz0 : len0 ≤ z0.length := by omega
  have hT' : ∀ W : World, Below w.heap.size w W → TabAt W := fun W hW => hT.below hW
  have HT := Lib.hid hT'
  clear hq hlow hcell hwf hzl hT'
  unfold maxLen at hcm
  have hl3 : decide ((60 : Int) < (len0 : Int)) = false := decide_eq_false hl2
  go_enter Tryd.func5, Tryd.ntmps5
  go_wp2_with (fail)
  refine (awakeB w hT).mono ?_
  rintro e w1 ⟨rfl, hb1⟩
  clear hT
  go_wp2
  clear hl3
  go_loopw [6, 7] (fun a b wr => ∃ (i : Nat) (S : ByteArray), i ≤ len0 ∧ a = .string S ∧ b = .int .i64 (i : Int) ∧ S.data.toList = digL (z0.take i) ∧ S.size = i ∧ Below w.heap.size w wr) (fun _ b _ => len0 - (intOf b).toNat)
  case atStart => exact ⟨0, ⟨#[]⟩, by omega, rfl, rfl, rfl, rfl, hb1⟩
  case round =>
    obtain ⟨i, S, hi, rfl, rfl, hS, hsz, hbw⟩ := hrel
    have HS := Lib.hid hS
    have HZ := Lib.hid hsz
    have hs60 : S.size ≤ 60 := by omega
    clear hS hsz
    by_cases hlt : i < len0
    · have hc := HC0.out _ hbw i hlt
      obtain ⟨q0, q1⟩ := HQ.out i hlt
      have hmt := digB_int _ (mod_ten (z0.getD i 0))
      obtain ⟨c, hcc⟩ : ∃ c, digB (z0.getD i 0 % 10).toNat = c := ⟨_, rfl⟩
      have HSS : Hid (digL (z0.take (i + 1)) = digL (z0.take i) ++ [c]) := Lib.hid (by rw [digL_snoc z0 i (by omega), hcc])
      rw [hcc] at hmt
      obtain ⟨q, hqq⟩ : ∃ q, z0.getD i 0 = q := ⟨_, rfl⟩
      rw [hqq] at hc q0 q1 hmt
      have i0 : 0 ≤ q % 10 := Int.emod_nonneg _ (by decide)
      have i1 : q % 10 < 10 := Int.emod_lt_of_pos _ (by decide)
      have HCC : Hid (((c.toNat : Nat) : Int) = 48 + q % 10) := Lib.hid (by rw [hmt]; omega)
      clear hcc hqq hmt
      go_wp2
      rw [oneByte _ _ _ HCC.out]
      simp only [Result.andThen]
      rw [Oper.upon_value]
      go_wp2
      go_roundw
      case rel => exact ⟨i + 1, _, by omega, rfl, by go_num, by rw [ByteArray.data_append, Array.toList_append, HS.out, HSS.out], by rw [ByteArray.size_append, HZ.out]; rfl, hbw.alloc hbw.size _⟩
      case measure => simp [intOf]; omega
    · have hi' : i = len0 := by omega
      subst hi'
      obtain ⟨zs, hzs⟩ : ∃ zs, z0.take i = zs := ⟨_, rfl⟩
      have hzl : zs.length = i := by rw [← hzs, List.length_take]; omega
      have hz00 : zs.getD 0 0 = z0.getD 0 0 := by
        rw [← hzs, List.getD_eq_getElem?_getD, List.getD_eq_getElem?_getD, List.getElem?_take_of_lt (by omega)]
      have HS' : Hid (S.data.toList = digL zs) := Lib.hid (by rw [HS.out, hzs])
      have HZS := Lib.hid hzl
      have HZ0 := Lib.hid hz00
      have hne : zs ≠ [] := fun e => hl0 (by rw [← hzl, e]; rfl)
      have HNE := Lib.hid hne
      clear hzs hzl hz00 hne HS
      go_wp2
      go_loopw [8, 9] (fun a b wr' => ∃ (j : Nat) (T : ByteArray), j ≤ z ∧ a = .string T ∧ b = .int .i64 (j : Int) ∧ T.data.toList = List.replicate j 48 ++ digL zs ∧ T.size = j + i ∧ wr = wr') (fun _ b _ => z - (intOf b).toNat)
      case atStart => exact ⟨0, S, by omega, rfl, rfl, by rw [HS'.out]; rfl, by rw [HZ.out]; omega, rfl⟩
      case round =>
        obtain ⟨j, T, hj, rfl, rfl, hTl, hTz, rfl⟩ := hrel
        have HTL := Lib.hid hTl
        have HTZ := Lib.hid hTz
        have ht60 : T.size ≤ 315 := by omega
        clear hTl hTz
        by_cases hjz : j < z
        · go_wp2
          go_roundw
          case rel => exact ⟨j + 1, _, by omega, rfl, by go_num, by rw [ByteArray.data_append, Array.toList_append, HTL.out, List.replicate_succ]; rfl, by rw [ByteArray.size_append, HTZ.out, show (ByteArray.mk #[48]).size = 1 from rfl]; omega, trivial⟩
          case measure => simp [intOf]; omega
        · have hjz' : j = z := by omega
          obtain ⟨a1, a2, a3, a4⟩ := zero_reads zs 0 S (by rw [HS'.out]; rfl) HNE.out
          obtain ⟨b1, b2, b3, b4⟩ := zero_reads zs j T HTL.out HNE.out
          have hvl := valD_le 10 (digL zs)
          have hbig := valD_big zs
          rw [HZS.out, HZ0.out] at hbig
          obtain ⟨v, hv⟩ : ∃ v, valD 10 (digL zs) = v := ⟨_, rfl⟩
          rw [hv] at a1 a4 b1 b4 hvl hbig
          have A2 := Lib.hid a2
          have A3 := Lib.hid a3
          have B2 := Lib.hid b2
          have B3 := Lib.hid b3
          have z35 : (ByteArray.mk #[35]).size = 1 := rfl
          have z59 : (ByteArray.mk #[59]).size = 1 := rfl
          have gS : (⟨#[35]⟩ ++ S ++ ⟨#[59]⟩ : ByteArray).size ≤ 1099511627776 := by simp only [ByteArray.size_append, z35, z59]; omega
          have gT : (⟨#[35]⟩ ++ T ++ ⟨#[59]⟩ : ByteArray).size ≤ 1099511627776 := by simp only [ByteArray.size_append, z35, z59]; omega
          have GS := Lib.hid gS
          have GT := Lib.hid gT
          have hc0 := HC0.out _ hbw 0 (by omega)
          rw [show x.add 0 = x by simp [Addr.add]] at hc0
          obtain ⟨q0, q1⟩ := HQ.out 0 (by omega)
          obtain ⟨q, hqq⟩ : ∃ q, z0.getD 0 0 = q := ⟨_, rfl⟩
          rw [hqq] at hc0 q0 q1 hbig
          have hsl : S.size = i := HZ.out
          have HSL := Lib.hid hsl
          have i0 : 0 ≤ q % 10 := Int.emod_nonneg _ (by decide)
          have i1 : q % 10 < 10 := Int.emod_lt_of_pos _ (by decide)
          have v0 : (v : Int) ≤ 1114112 := by omega
          have hil : 0 < i := by omega
          have hjj : ¬ (j : Int) < (z : Int) := by omega
          clear hjz' a2 a3 b2 b3 hv gS gT z35 z59 hqq hvl hjz hlt
          by_cases h7 : 7 < i
          · have h7i : (7 : Int) < (S.size : Int) := by omega
            by_cases hq0 : q % 10 = 0
            · have hq0' : (q % 10 != 0) = false := by rw [hq0]; rfl
              obtain ⟨F, hF⟩ : ∃ F, fixS (v : Int) = F := ⟨_, rfl⟩
              rw [hF] at a1 b1
              have A1 := Lib.hid a1
              have A4 := Lib.hid a4
              have B1 := Lib.hid b1
              have B4 := Lib.hid b4
              clear a1 a4 b1 b4 hF hq0 hbig hsl
              go_wp2_with (fail)
              refine (read _ 0 _ GS.out (by decide) (by decide) (HT.out _ hbw)).mono ?_
              rintro e w3 ⟨rfl, n2, rfl⟩
              rw [A1.out, A2.out, A3.out]
              go_wp2_with (fail)
              refine (read _ 0 _ GT.out (by decide) (by decide) ((HT.out _ hbw).drawn _)).mono ?_
              rintro e w3 ⟨rfl, n3, rfl⟩
              rw [B1.out, B2.out, B3.out]
              go_wp2_with (fail)
              refine (value _ _ _ (by omega)).mono ?_
              rintro e w3 ⟨rfl, rfl⟩
              rw [A4.out]
              go_wp2_with (fail)
              refine (value _ _ _ (by omega)).mono ?_
              rintro e w3 ⟨rfl, rfl⟩
              rw [B4.out]
              go_wp2
              go_ret
              exact ⟨ret_bool (by simp), hbw.trans (below_drewN4 _ _ _)⟩
            · have hq0' : (q % 10 != 0) = true := bne_iff_ne.2 hq0
              have hvv : v = 1114112 := hbig h7 hq0
              subst hvv
              rw [show fixS ((1114112 : Nat) : Int) = ⟨#[239, 191, 189]⟩ from fixS_cap] at a1 b1
              rw [show ((1114112 : Nat) : Int) = 1114112 from rfl] at a4 b4
              have A1 := Lib.hid a1
              have A4 := Lib.hid a4
              have B1 := Lib.hid b1
              have B4 := Lib.hid b4
              clear a1 a4 b1 b4 hq0 hbig hsl v0
              go_wp2_with (fail)
              refine (read _ 0 _ GS.out (by decide) (by decide) (HT.out _ hbw)).mono ?_
              rintro e w3 ⟨rfl, n2, rfl⟩
              rw [A1.out, A2.out, A3.out]
              go_wp2_with (fail)
              refine (read _ 0 _ GT.out (by decide) (by decide) ((HT.out _ hbw).drawn _)).mono ?_
              rintro e w3 ⟨rfl, n3, rfl⟩
              rw [B1.out, B2.out, B3.out]
              go_wp2_with (fail)
              refine (value _ _ _ (by omega)).mono ?_
              rintro e w3 ⟨rfl, rfl⟩
              rw [A4.out]
              go_wp2_with (fail)
              refine (value _ _ _ (by omega)).mono ?_
              rintro e w3 ⟨rfl, rfl⟩
              rw [B4.out]
              go_wp2
              go_ret
              exact ⟨ret_bool (by simp), hbw.trans (below_drewN4 _ _ _)⟩
          · have h7i : (S.size : Int) ≤ 7 := by omega
            obtain ⟨F, hF⟩ : ∃ F, fixS (v : Int) = F := ⟨_, rfl⟩
            rw [hF] at a1 b1
            have A1 := Lib.hid a1
            have A4 := Lib.hid a4
            have B1 := Lib.hid b1
            have B4 := Lib.hid b4
            clear a1 a4 b1 b4 hF hbig hsl
            go_wp2_with (fail)
            refine (read _ 0 _ GS.out (by decide) (by decide) (HT.out _ hbw)).mono ?_
            rintro e w3 ⟨rfl, n2, rfl⟩
            rw [A1.out, A2.out, A3.out]
            go_wp2_with (fail)
            refine (read _ 0 _ GT.out (by decide) (by decide) ((HT.out _ hbw).drawn _)).mono ?_
            rintro e w3 ⟨rfl, n3, rfl⟩
            rw [B1.out, B2.out, B3.out]
            go_wp2_with (fail)
            refine (value _ _ _ (by omega)).mono ?_
            rintro e w3 ⟨rfl, rfl⟩
            rw [A4.out]
            go_wp2_with (fail)
            refine (value _ _ _ (by omega)).mono ?_
            rintro e w3 ⟨rfl, rfl⟩
            rw [B4.out]
            go_wp2
            go_ret
            exact ⟨ret_bool (by simp), hbw.trans (below_drewN4 _ _ _)⟩

theorem laid_met (os : Os) : laidMet Tryd.prog Rows.numberZerosRow.laid ((laidWorld os).forCall (fun _ _ => 0) ⟨#[], #[.slice none 0 0, .int .u8 0], []⟩).memory :=
  laidMet_of_run' 8 (by kernel_rfl) (by kernel_rfl)
theorem reads (os : Os) {H : Type} (enc : TypeId × Value → H) : ∃ places, DataW.whole enc Tryd.prog ((laidWorld os).forCall (fun _ _ => 0) ⟨#[], #[.slice none 0 0, .int .u8 0], []⟩).memory Tryd.f5.params.toList Rows.numberZerosSpec.vars false (#[.slice none 0 0, .int .u8 0] : Array Value).toList 8 = some ([.nil, .lit (.int .u8 0)], [], places) :=
  ⟨[], by kernel_rfl⟩
set_option maxRecDepth 100000 in
theorem lifted (os : Os) (started : os.Started) (H : Type) (enc : TypeId × Value → H) (F : Stop.Interp) :
    ReturnsInHanded {} Tryd.checked os 5 .any ((OpenSpec.ofChange Rows.numberZerosSpec).preRow enc Tryd.prog Tryd.f5 Rows.numberZerosRow.domain false Rows.numberZerosRow.laid) (((OpenSpec.ofChange Rows.numberZerosSpec).at F).post enc Tryd.prog Tryd.f5 false true false false) := by
  obtain ⟨places, hx⟩ := reads os enc
  refine returnsInHanded_of_row (C := Tryd.checked) (s := OpenSpec.ofChange Rows.numberZerosSpec) own started (by kernel_rfl) Tryd.func5
    (witness_row_at (enc := enc) (C := Tryd.checked) false (laidWorld os) #[.slice none 0 0, .int .u8 0] rfl (by kernel_rfl) (by kernel_rfl) (by kernel_rfl)
      (OpenSpec.preRow_of_cond 8 hx (by kernel_rfl) (fun k hk => by cases hk) (by kernel_rfl) (laid_met os))) ?_
  intro W base args ds gs before hval0 hW _ _ _ hL _ _
  have hval : ∀ (j : Nat) t v, Tryd.f5.params[j]? = some t → args[j]? = some v → Value.okWide Tryd.prog W .any base t v := hval0
  have hW' := hW
  obtain ⟨p, q, hA0, hV, rfl, hfz, hnd⟩ := hW
  have hA : DataW.TrodAll enc Tryd.prog W 0 (fun _ => true) true Tryd.f5.params.toList args.toList ds p := hA0
  rw [Tryd.params5] at hA hval
  obtain ⟨v0, vs0, d0, ds0, p0, q0, hargs, rfl, rfl, h0, r0⟩ := trodAll_cons hA
  obtain ⟨v1, vs1, d1, ds1, p1, q1, rfl, rfl, rfl, h1, r1⟩ := trodAll_cons r0
  obtain ⟨rfl, rfl, rfl⟩ := trodAll_nil r1
  obtain rfl : args = #[v0, v1] := by cases args; simp_all
  obtain ⟨rfl, rfl⟩ := trodVars_none hV
  obtain ⟨a0, len0, cap0, rfl⟩ := okWide_slice Tryd.underlying29 (hval 0 29 v0 rfl rfl)
  have k0 := h0
  have lt0 : ∀ x ∈ p0, x.block < W.heap.size := by obtain ⟨m, hm⟩ := k0; exact DataW.trod_lt m _ _ _ hm
  obtain ⟨z0, w0⟩ : ∃ zs, IsRow .u8 W a0 len0 cap0 zs := by
    obtain ⟨fuel, hf⟩ := h0
    rcases open_ints Tryd.underlying29 Tryd.underlying5 (by kernel_rfl) hf with ⟨hcs, _⟩ | ⟨x, l, c, zs, hcs, _, hl, hm, hz, _, hcell, hwz⟩
    · simp [Value.cells] at hcs
      obtain ⟨rfl, rfl, rfl⟩ := hcs
      exact ⟨[], .inl ⟨rfl, rfl, rfl, rfl⟩⟩
    · simp [Value.cells] at hcs
      obtain ⟨rfl, rfl, rfl⟩ := hcs
      exact ⟨zs, .inr ⟨_, rfl, hl, hm, by simpa using hz, hcell, hwz⟩⟩
  obtain ⟨a1, rfl, rfl, rfl, w1⟩ := open_int Tryd.underlying5 (hval 1 5 v1 rfl rfl) h1
  clear hA0 hval0
  refine (walk a0 len0 cap0 z0 a1 W (tabAt_of hL) w0 w1).mono fun e W' ⟨he, bel⟩ => ?_
  subst he
  exact ⟨_, rfl, _, _, _, [], _, [], hW', trodAll_mk1 (shut_bool Tryd.underlying4 _), (trodAll_cons_mk (Below.trod laidOut (by kernel_rfl) (of_decide_eq_true (by kernel_rfl)) k0 bel lt0) (trodAll_cons_mk (shut_int Tryd.underlying5 w1) trodAll_mk0)), rfl, bel.frame _, fun h => by cases h⟩

theorem said : Rows.NumberZerosSaid :=
  OpenClaim.holds_of_cond 5 Tryd.f5 rfl rfl rfl rfl rfl rfl rfl ⟨rfl, rfl, rfl, rfl, rfl⟩ rfl rfl rfl rfl rfl (by kernel_rfl) Tryd.func5 (by kernel_rfl)
    (of_decide_eq_true (by kernel_rfl)) (by unfold Func.isWrapper; first | (rw [if_pos (by decide +kernel)]; kernel_rfl) | (rw [if_neg (by decide +kernel)]; exact ⟨rfl, rfl⟩))
    (fun os started H enc _ F => by rw [OpenClaim.pre_eq_preRow]; exact lifted os started H enc F)
theorem plain (f : FuncId) (fn : Func) (hf : Tryd.pinned.checked.prog.funcNamed "flail/flaillaw04.NumberZeros" = some f) (hfn : Tryd.pinned.checked.prog.funcs[f]? = some fn) :
    false = Tryd.pinned.checked.prog.looks [] ∧ ∀ (j : Nat) t, fn.params[j]? = some t → Tryd.pinned.checked.prog.wantsStandIn t = false := by
  obtain rfl : f = 5 := Option.some.inj ((show Tryd.prog.funcNamed "flail/flaillaw04.NumberZeros" = some 5 by kernel_rfl).symm.trans hf) |>.symm
  obtain rfl : fn = Tryd.f5 := (Option.some.inj (Tryd.func5.symm.trans hfn)).symm
  refine ⟨by kernel_rfl, fun j t ht => ?_⟩
  rw [Tryd.params5] at ht
  have hm : t ∈ [29, 5] := by simpa using Array.mem_of_getElem? ht
  have hall : ([29, 5].all fun u => !Tryd.prog.wantsStandIn u) = true := by kernel_rfl
  exact (show Tryd.prog.wantsStandIn t = false by simpa using List.all_eq_true.1 hall t hm)
/-- the statement: the row's card -/
theorem proved : Rows.NumberZerosCardSaid :=
  Claim7.holds_tied_plain_at .later [] _ _ _ _ said (fun _ h => by cases h) (by kernel_rfl) (fun _ h => by cases h) numberZeros_row_tie rfl ⟨rfl, rfl⟩ (by kernel_rfl) rfl plain (by kernel_rfl)
end Go.Proofs.YtionbaedddnggaaDoor.numberZeros
