/-
  The law NumberHex of flail/flaillaw04 answers true for every input, and changes nothing that was there. Condition, which the card ties to the program's text: when the call begins, the package variable that the row lists holds what that text lays in it (flail/number.others).
-/
import Derived.Test.YtionbaedddnggaaDoorRows
import Derived.Test.YtionbaedddnggaaDoorNumDec
import Derived.Test.YtionbaedddnggaaDoorCards
import Derived.Test.YtionbaedddnggaaDoorNumLaid
import Derived.WalkKit
import Derived.ProofKit
import Derived.ChangeOld
import Derived.Below
import Derived.OpenShut
import Derived.ShutString
namespace Go.Proofs.YtionbaedddnggaaDoor.numberHex
open Go.ChangeShapes Go.WideShapes Go.ChangeAt Go.RowKit
open Go.ChangeMaps (open_string shut_string)
set_option linter.unusedVariables false      -- a walk need not use every 'w<i>' (that an integer argument fits its kind)

theorem own : ownKnob Tryd.prog.godebug = none := by kernel_rfl

set_option maxRecDepth 100000 in
set_option maxHeartbeats 1000000 in
theorem walk (a0 : Int) (w0 : (Lit.int .u32 a0).wf = true) (w : World) (hT : TabAt w) :
    Calls Tryd.prog 8 #[.int .u32 a0] w fun e w' => e = .returned (.bool true) ∧ Below w.heap.size w w' := by
  have hb0 : 0 ≤ a0 ∧ a0 ≤ 4294967295 := by simpa [Lit.wf, IntKind.min, IntKind.max, IntKind.signed, IntKind.bits] using w0
  obtain ⟨h0, h1⟩ := hb0
  clear w0
  obtain ⟨n, rfl⟩ : ∃ n : Nat, a0 = (n : Int) := ⟨a0.toNat, by omega⟩
  go_enter Tryd.func8, Tryd.ntmps8
  go_wp2_with (fail)
  refine (awake_any w hT).mono ?_
  rintro e w1 ⟨rfl, n1, rfl⟩
  go_wp2
  go_loopw [6, 7, 8] (fun a b k wr => ∃ (j : Nat) (A B : ByteArray), j ≤ 8 ∧ a = .string A ∧ b = .string B ∧ k = .int .i64 (28 - 4 * (j : Int)) ∧ HexP n j A ∧ HexP n j B ∧ w.drewN n1 = wr) (fun _ _ k _ => (intOf k + 4).toNat)
  case atStart => exact ⟨0, ⟨#[]⟩, ⟨#[]⟩, by omega, rfl, rfl, rfl, hexP_0 n (by omega), hexP_0 n (by omega), rfl⟩
  case round =>
    obtain ⟨j, A, B, hj, rfl, rfl, rfl, hA, hB, rfl⟩ := hrel
    have HA := Lib.hid hA
    have HB := Lib.hid hB
    have sA : A.size = j := hA.1
    have sB : B.size = j := hB.1
    have SA := Lib.hid sA
    have SB := Lib.hid sB
    have zA : A.size ≤ 8 := by omega
    have zB : B.size ≤ 8 := by omega
    clear hA hB sA sB
    by_cases hlt : j < 8
    · have k0 : 0 ≤ 28 - 4 * (j : Int) := by omega
      have k1 : 28 - 4 * (j : Int) ≤ 28 := by omega
      have hq := hexD n (28 - 4 * j) (by omega)
      have hd : n / 2 ^ (28 - 4 * j) % 16 < 16 := Nat.mod_lt _ (by decide)
      have S1 := Lib.hid (hexP_step n j (28 - 4 * j) A lowHex hlt rfl rfl lowHex_at HA.out)
      have S2 := Lib.hid (hexP_step n j (28 - 4 * j) B upHex hlt rfl rfl upHex_at HB.out)
      have z1 := hex_one lowHex _ rfl hd
      have z2 := hex_one upHex _ rfl hd
      obtain ⟨d, hdd⟩ : ∃ d : Nat, n / 2 ^ (28 - 4 * j) % 16 = d := ⟨_, rfl⟩
      rw [hdd] at hq hd S1 S2 z1 z2
      unfold lowHex at S1 z1
      unfold upHex at S2 z2
      have di : (d : Int) < 16 := by omega
      have d0 : (0 : Int) ≤ (d : Int) := by omega
      clear hdd HA HB SA SB
      go_wp2_with (fail)
      go_roundw
      case rel => exact ⟨j + 1, _, _, by omega, rfl, rfl, by go_num, S1.out, S2.out, trivial⟩
      case measure => simp [intOf]; omega
    · have hj8 : j = 8 := by omega
      obtain ⟨p1, p2, p3, p4⟩ := hex_reads n j A hj8 HA.out
      obtain ⟨q1, q2, q3⟩ := hex_reads2 n j B hj8 HB.out
      obtain ⟨r1, r2, r3, r4⟩ := dec_reads n
      have hdz := decS_bound n
      obtain ⟨T, hT1⟩ : ∃ T, fixS ((capN n : Nat) : Int) = T := ⟨_, rfl⟩
      obtain ⟨V, hV1⟩ : ∃ V : Int, ((capN n : Nat) : Int) = V := ⟨_, rfl⟩
      obtain ⟨D, hD⟩ : ∃ D, decS n = D := ⟨_, rfl⟩
      rw [hT1] at p1 q1 r1
      rw [hV1] at p4 r4
      rw [hD] at r1 r2 r3 r4 hdz
      have P1 := Lib.hid p1
      have P2 := Lib.hid p2
      have P3 := Lib.hid p3
      have P4 := Lib.hid p4
      have Q1 := Lib.hid q1
      have Q2 := Lib.hid q2
      have Q3 := Lib.hid q3
      have R1 := Lib.hid r1
      have R2 := Lib.hid r2
      have R3 := Lib.hid r3
      have R4 := Lib.hid r4
      have HD := Lib.hid hD
      have z1 : (ByteArray.mk #[35, 120]).size = 2 := rfl
      have z2 : (ByteArray.mk #[35, 88]).size = 2 := rfl
      have z35 : (ByteArray.mk #[35]).size = 1 := rfl
      have z59 : (ByteArray.mk #[59]).size = 1 := rfl
      have hS1 : (⟨#[35, 120]⟩ ++ A ++ ⟨#[59]⟩ : ByteArray).size ≤ 1099511627776 := by simp only [ByteArray.size_append, z1, z59]; omega
      have hS2 : (⟨#[35, 88]⟩ ++ B : ByteArray).size ≤ 1099511627776 := by simp only [ByteArray.size_append, z2]; omega
      have hS3 : (⟨#[35]⟩ ++ D : ByteArray).size ≤ 1099511627776 := by simp only [ByteArray.size_append, z35]; omega
      have HS1 := Lib.hid hS1
      have HS2 := Lib.hid hS2
      have HS3 := Lib.hid hS3
      have k0 : 28 - 4 * (j : Int) < 0 := by omega
      have zD : D.size ≤ 4294967296 := by omega
      clear p1 p2 p3 p4 q1 q2 q3 r1 r2 r3 r4 hD hT1 hV1 z1 z2 z35 z59 hS1 hS2 hS3 hj8 SA SB hdz
      go_wp2_with (fail)
      refine (read _ 0 _ HS1.out (by decide) (by decide) (hT.drawn _)).mono ?_
      rintro e w2 ⟨rfl, n2, rfl⟩
      rw [P1.out, P2.out, P3.out]
      go_wp2_with (fail)
      refine (read _ 0 _ HS2.out (by decide) (by decide) (hT.drawn _)).mono ?_
      rintro e w2 ⟨rfl, n3, rfl⟩
      rw [Q1.out, Q2.out, Q3.out]
      go_wp2_with (fail)
      refine (decimal n n _ (Nat.le_refl _) (by omega)).mono ?_
      rintro e w2 ⟨rfl, hb1⟩
      rw [HD.out]
      go_wp2_with (fail)
      refine (read _ 0 _ HS3.out (by decide) (by decide) ((hT.drawn _).below hb1)).mono ?_
      rintro e w3 ⟨rfl, n4, rfl⟩
      rw [R1.out, R2.out, R3.out]
      go_wp2_with (fail)
      refine (value _ _ _ (by omega)).mono ?_
      rintro e w3 ⟨rfl, rfl⟩
      rw [P4.out]
      go_wp2_with (fail)
      refine (decimal n n _ (Nat.le_refl _) (by omega)).mono ?_
      rintro e w3 ⟨rfl, hb2⟩
      rw [HD.out]
      go_wp2_with (fail)
      refine (value _ _ _ (by omega)).mono ?_
      rintro e w4 ⟨rfl, rfl⟩
      rw [R4.out]
      go_wp2
      go_ret
      exact ⟨ret_bool (by simp), (((below_drewN4 _ w _).trans hb1).trans (below_drewN4 _ _ _)).trans (hb2.mono hb1.size)⟩
  -- go_wp2
  -- go_ret
  -- exact ⟨rfl, by repeat (first | exact Grown.refl _ | apply Grown.drew | apply Grown.alloc)⟩

theorem laid_met (os : Os) : laidMet Tryd.prog Rows.numberHexRow.laid ((laidWorld os).forCall (fun _ _ => 0) ⟨#[], #[.int .u32 0], []⟩).memory :=
  laidMet_of_run' 8 (by kernel_rfl) (by kernel_rfl)
theorem reads (os : Os) {H : Type} (enc : TypeId × Value → H) : ∃ places, DataW.whole enc Tryd.prog ((laidWorld os).forCall (fun _ _ => 0) ⟨#[], #[.int .u32 0], []⟩).memory Tryd.f8.params.toList Rows.numberHexSpec.vars false (#[.int .u32 0] : Array Value).toList 8 = some ([.lit (.int .u32 0)], [], places) :=
  ⟨[], by kernel_rfl⟩
set_option maxRecDepth 100000 in
theorem lifted (os : Os) (started : os.Started) (H : Type) (enc : TypeId × Value → H) (F : Stop.Interp) :
    ReturnsInHanded {} Tryd.checked os 8 .any ((OpenSpec.ofChange Rows.numberHexSpec).preRow enc Tryd.prog Tryd.f8 Rows.numberHexRow.domain false Rows.numberHexRow.laid) (((OpenSpec.ofChange Rows.numberHexSpec).at F).post enc Tryd.prog Tryd.f8 false true false false) := by
  obtain ⟨places, hx⟩ := reads os enc
  refine returnsInHanded_of_row (C := Tryd.checked) (s := OpenSpec.ofChange Rows.numberHexSpec) own started (by kernel_rfl) Tryd.func8
    (witness_row_at (enc := enc) (C := Tryd.checked) false (laidWorld os) #[.int .u32 0] rfl (by kernel_rfl) (by kernel_rfl) (by kernel_rfl)
      (OpenSpec.preRow_of_cond 8 hx (by kernel_rfl) (fun k hk => by cases hk) (by kernel_rfl) (laid_met os))) ?_
  intro W base args ds gs before hval0 hW _ _ _ hL _ _
  have hval : ∀ (j : Nat) t v, Tryd.f8.params[j]? = some t → args[j]? = some v → Value.okWide Tryd.prog W .any base t v := hval0
  have hW' := hW
  obtain ⟨p, q, hA0, hV, rfl, hfz, hnd⟩ := hW
  have hA : DataW.TrodAll enc Tryd.prog W 0 (fun _ => true) true Tryd.f8.params.toList args.toList ds p := hA0
  rw [Tryd.params8] at hA hval
  obtain ⟨v0, vs0, d0, ds0, p0, q0, hargs, rfl, rfl, h0, r0⟩ := trodAll_cons hA
  obtain ⟨rfl, rfl, rfl⟩ := trodAll_nil r0
  obtain rfl : args = #[v0] := by cases args; simp_all
  obtain ⟨rfl, rfl⟩ := trodVars_none hV
  obtain ⟨a0, rfl, rfl, rfl, w0⟩ := open_int Tryd.underlying31 (hval 0 31 v0 rfl rfl) h0
  clear hA0 hval0
  refine (walk a0 w0 W (tabAt_of hL)).mono fun e W' ⟨he, bel⟩ => ?_
  subst he
  exact ⟨_, rfl, _, _, _, [], _, [], hW', trodAll_mk1 (shut_bool Tryd.underlying4 _), (trodAll_cons_mk (shut_int Tryd.underlying31 w0) trodAll_mk0), rfl, bel.frame _, fun h => by cases h⟩

theorem said : Rows.NumberHexSaid :=
  OpenClaim.holds_of_cond 8 Tryd.f8 rfl rfl rfl rfl rfl rfl rfl ⟨rfl, rfl, rfl, rfl, rfl⟩ rfl rfl rfl rfl rfl (by kernel_rfl) Tryd.func8 (by kernel_rfl)
    (of_decide_eq_true (by kernel_rfl)) (by unfold Func.isWrapper; first | (rw [if_pos (by decide +kernel)]; kernel_rfl) | (rw [if_neg (by decide +kernel)]; exact ⟨rfl, rfl⟩))
    (fun os started H enc _ F => by rw [OpenClaim.pre_eq_preRow]; exact lifted os started H enc F)
theorem plain (f : FuncId) (fn : Func) (hf : Tryd.pinned.checked.prog.funcNamed "flail/flaillaw04.NumberHex" = some f) (hfn : Tryd.pinned.checked.prog.funcs[f]? = some fn) :
    false = Tryd.pinned.checked.prog.looks [] ∧ ∀ (j : Nat) t, fn.params[j]? = some t → Tryd.pinned.checked.prog.wantsStandIn t = false := by
  obtain rfl : f = 8 := Option.some.inj ((show Tryd.prog.funcNamed "flail/flaillaw04.NumberHex" = some 8 by kernel_rfl).symm.trans hf) |>.symm
  obtain rfl : fn = Tryd.f8 := (Option.some.inj (Tryd.func8.symm.trans hfn)).symm
  refine ⟨by kernel_rfl, fun j t ht => ?_⟩
  rw [Tryd.params8] at ht
  have hm : t ∈ [31] := by simpa using Array.mem_of_getElem? ht
  have hall : ([31].all fun u => !Tryd.prog.wantsStandIn u) = true := by kernel_rfl
  exact (show Tryd.prog.wantsStandIn t = false by simpa using List.all_eq_true.1 hall t hm)
/-- the statement: the row's card -/
theorem proved : Rows.NumberHexCardSaid :=
  Claim7.holds_tied_plain_at .later [] _ _ _ _ said (fun _ h => by cases h) (by kernel_rfl) (fun _ h => by cases h) numberHex_row_tie rfl ⟨rfl, rfl⟩ (by kernel_rfl) rfl plain (by kernel_rfl)
end Go.Proofs.YtionbaedddnggaaDoor.numberHex
