/-
  The law EscapeSigns of flail/flaillaw21 answers true for every input, and changes nothing that was there. Condition, which the card ties to the program's text: when the call begins, the package variables that the row lists hold what that text lays in them (math/bits.deBruijn32tab, math/bits.deBruijn64tab, internal/strconv.uint64pow10, strconv.ErrRange, strconv.ErrSyntax, flail/number.others).
-/
import Derived.Test.YtbcmfcddkegcoaaGreatDoorRows
import Derived.Test.YtbcmfcddkegcoaaGreatDoorEscAwake
import Derived.Test.YtbcmfcddkegcoaaGreatDoorEscExt
import Derived.Test.YtbcmfcddkegcoaaGreatDoorXA
import Derived.Test.YtbcmfcddkegcoaaGreatDoorRenCode
import Derived.Test.YtbcmfcddkegcoaaGreatDoorQI
import Derived.Test.YtbcmfcddkegcoaaGreatDoorP4
import Derived.Test.YtbcmfcddkegcoaaGreatDoorCards
import Derived.Test.YtbcmfcddkegcoaaGreatDoorP6
import Derived.WalkKit
import Derived.ProofKit
import Derived.ChangeOld
import Derived.Below
import Derived.OpenShut
import Derived.ShutString
namespace Go.Proofs.YtbcmfcddkegcoaaGreatDoor.escapeSigns
open Go.ChangeShapes Go.WideShapes Go.ChangeAt Go.RowKit
open Go.ChangeMaps (open_string shut_string)
set_option linter.unusedVariables false      -- a walk need not use every 'w<i>' (that an integer argument fits its kind)

theorem own : ownKnob Tryz.prog.godebug = none := by kernel_rfl

set_option maxRecDepth 100000 in
set_option maxHeartbeats 8000000 in
theorem walk (a0 : ByteArray) (w0 : a0.size ≤ maxLen) (w : World) (hT : LaidAt w) :
    Calls Tryz.prog 3 #[.string a0] w fun e w' => e = .returned (.bool true) ∧ Below w.heap.size w w' := by
  clear w0
  have HW := Lib.hid hT
  clear hT
  by_cases hlen : 300 < a0.size
  · go_enter Tryz.func3, Tryz.ntmps3
    go_wp2_with (go_at_call 4; refine (escAwake_any w).mono ?_; rintro e w1 ⟨rfl, hb1⟩)
    go_ret
    exact ⟨rfl, hb1⟩
  have hs1 : a0.size ≤ 300 := by omega
  have R1 := fun w => Lib.hid (right_any a0 w)
  cases hv : Lib.validD a0.data.toList with
  | false =>
    rw [hv] at R1
    clear hv
    go_enter Tryz.func3, Tryz.ntmps3
    go_wp2_with (fail)
    refine (escAwake_any w).mono ?_
    rintro e w1 ⟨rfl, c1⟩
    have B1 := Lib.hid c1
    clear c1
    go_wp2_with (fail)
    refine (R1 _).out.mono ?_
    rintro e w2 ⟨rfl, c2⟩
    go_wp2
    go_ret
    exact ⟨rfl, B1.out.trans (c2.mono B1.out.size)⟩
  | true =>
    rw [hv] at R1
    have H1 := fun w => Lib.hid (escEnc_any 0 a0 w (by decide) (by omega))
    have hx := ext_signs a0.data.toList hv
    have hln := encD_len 0 a0.data.toList
    obtain ⟨T, hT, lT, sT⟩ := named21 (encD 0 a0.data.toList)
    rw [hT] at H1
    rw [← lT] at hx
    rw [← sT, ← Lib.size_eq] at hln
    have hcl := (cleanL_len a0.data.toList).2
    have H2 := fun w => Lib.hid (clean_any a0 w (by omega))
    obtain ⟨C, hC, lC, sC⟩ := named21 (cleanL a0.data.toList)
    rw [hC] at H2
    rw [← lC] at hx
    rw [← sC, ← Lib.size_eq] at hcl
    have hTl : (⟨#[60, 112, 62]⟩ ++ T ++ ⟨#[60, 47, 112, 62]⟩ : ByteArray).data.toList = [60, 112, 62] ++ (T.data.toList ++ [60, 47, 112, 62]) := by simp [ByteArray.data_append]
    have k1 : (⟨#[60, 112, 62]⟩ : ByteArray).size = 3 := rfl
    have k2 : (⟨#[60, 47, 112, 62]⟩ : ByteArray).size = 4 := rfl
    have z1 : (⟨#[60, 112, 62]⟩ ++ T ++ ⟨#[60, 47, 112, 62]⟩ : ByteArray).size = 3 + T.size + 4 := by simp only [ByteArray.size_append, k1, k2]
    have hxk : ExtOk (⟨#[60, 112, 62]⟩ ++ T ++ ⟨#[60, 47, 112, 62]⟩ : ByteArray).data.toList := by
      obtain ⟨x1, x2, x3⟩ := ext_signs_ok a0.data.toList hv (by rw [← Lib.size_eq]; omega)
      rw [hTl]
      rw [← lT] at x1 x2 x3
      exact ⟨x1, x2, x3⟩
    have E1 := fun fr w h => Lib.hid (ext_str _ _ fr w z1 hxk h)
    rw [hTl, hx] at E1
    obtain ⟨V, hV⟩ : ∃ V : ByteArray, (⟨(renL [txtT C.data.toList]).toArray⟩ : ByteArray) = V := ⟨_, rfl⟩
    rw [hV] at E1
    have HR := fun a cap w (h : IsBare w a 1 cap [txtT C.data.toList]) h2 => Lib.hid (ren_any a 1 cap [txtT C.data.toList] w h (by decide) (fun t ht => by rw [List.mem_singleton.1 ht]; show C.data.toList.length ≤ 65536; rw [← Lib.size_eq]; omega) h2)
    rw [hV] at HR
    have p1 : ¬ 9223372036854775807 < 3 + T.size := by omega
    have p2 : ¬ 9223372036854775807 < 3 + T.size + 4 := by omega
    have HL := fun w => Lib.hid (isToks_put w [txtT C.data.toList] (fun t ht => by rw [List.mem_singleton.1 ht]; rfl) 31 _ rfl (Nat.le_of_ble_eq_true rfl))
    clear hv hx hln hT lT sT hcl hC lC sC hTl k1 k2 z1 hxk hV hlen
    have kc := fun (wx : World) (s : ByteArray) => run_bytes_of_string (P := Tryz.prog) wx 9 25 5 s Tryz.underlying9 Tryz.underlying25 Tryz.underlying5
    go_enter Tryz.func3, Tryz.ntmps3
    go_wp2_with (fail)
    refine (escAwake_any w).mono ?_
    rintro e w1 ⟨rfl, c1⟩
    have B1 := Lib.hid c1
    clear c1
    go_wp2_with (fail)
    refine (R1 _).out.mono ?_
    rintro e w2 ⟨rfl, c2⟩
    have B2 := Lib.hid (B1.out.trans (c2.mono B1.out.size))
    clear c2
    go_wp2_with (fail)
    refine (H1 _).out.mono ?_
    rintro e w3 ⟨rfl, c3⟩
    have B3 := Lib.hid (B2.out.trans (c3.mono B2.out.size))
    clear c3
    go_wp2_with (fail)
    refine (E1 _ _ (HW.out.below B3.out)).out.mono ?_
    rintro e w4 ⟨rfl, c4⟩
    have B4 := Lib.hid (B3.out.trans (c4.mono B3.out.size))
    clear c4
    go_wp2_with (fail)
    refine (H2 _).out.mono ?_
    rintro e w5 ⟨rfl, c5⟩
    have B5 := Lib.hid (B4.out.trans (c5.mono B4.out.size))
    clear c5
    have L5 := Lib.hid ((IsToks.bare (HL w5).out))
    obtain ⟨w6, hw6⟩ : ∃ w6, w5.alloc (.cells (cellsT (bareQ [txtT C.data.toList])).toArray 31) = w6 := ⟨_, rfl⟩
    have B6 := Lib.hid (show Below w.heap.size w w6 by rw [← hw6]; exact B5.out.alloc B5.out.size _)
    rw [hw6] at L5
    have HW6 := Lib.hid (show w5.alloc (.cells #[.int .i64 0, .string ⟨#[]⟩, .string C, .slice none 0 0, .bool false] 31) = w6 by rw [← hw6]; simp [cellsT, bareQ, TkV.five, txtT])
    clear hw6
    go_wp2_with (fail)
    rw [HW6.out]
    refine (HR _ _ _ L5.out trivial).out.mono ?_
    rintro e w7 ⟨rfl, c7⟩
    have B7 := Lib.hid (B6.out.trans (c7.mono B6.out.size))
    clear c7
    go_wp2
    go_ret
    exact ⟨ret_bool (by simp), B7.out⟩
  -- go_wp2
  -- go_ret
  -- exact ⟨rfl, by repeat (first | exact Grown.refl _ | apply Grown.drew | apply Grown.alloc)⟩

theorem laid_met (os : Os) : laidMet Tryz.prog Rows.escapeSignsRow.laid ((laidWorld os).forCall (fun _ _ => 0) ⟨#[], #[.string ByteArray.empty], []⟩).memory :=
  laidMet_of_run' 8 (by kernel_rfl) (by kernel_rfl)
theorem reads (os : Os) {H : Type} (enc : TypeId × Value → H) : ∃ places, DataW.whole enc Tryz.prog ((laidWorld os).forCall (fun _ _ => 0) ⟨#[], #[.string ByteArray.empty], []⟩).memory Tryz.f3.params.toList Rows.escapeSignsSpec.vars false (#[.string ByteArray.empty] : Array Value).toList 8 = some ([.lit (.string [])], [], places) :=
  ⟨[], by kernel_rfl⟩
set_option maxRecDepth 100000 in
theorem lifted (os : Os) (started : os.Started) (H : Type) (enc : TypeId × Value → H) (F : Stop.Interp) :
    ReturnsInHanded {} Tryz.checked os 3 .any ((OpenSpec.ofChange Rows.escapeSignsSpec).preRow enc Tryz.prog Tryz.f3 Rows.escapeSignsRow.domain false Rows.escapeSignsRow.laid) (((OpenSpec.ofChange Rows.escapeSignsSpec).at F).post enc Tryz.prog Tryz.f3 false true false false) := by
  obtain ⟨places, hx⟩ := reads os enc
  refine returnsInHanded_of_row (C := Tryz.checked) (s := OpenSpec.ofChange Rows.escapeSignsSpec) own started (by kernel_rfl) Tryz.func3
    (witness_row_at (enc := enc) (C := Tryz.checked) false (laidWorld os) #[.string ByteArray.empty] rfl (by kernel_rfl) (by kernel_rfl) (by kernel_rfl)
      (OpenSpec.preRow_of_cond 8 hx (by kernel_rfl) (fun k hk => by cases hk) (by kernel_rfl) (laid_met os))) ?_
  intro W base args ds gs before hval0 hW _ _ _ hL hsh _
  have hval : ∀ (j : Nat) t v, Tryz.f3.params[j]? = some t → args[j]? = some v → Value.okWide Tryz.prog W .any base t v := hval0
  have hW' := hW
  obtain ⟨p, q, hA0, hV, rfl, hfz, hnd⟩ := hW
  have hA : DataW.TrodAll enc Tryz.prog W 0 (fun _ => true) true Tryz.f3.params.toList args.toList ds p := hA0
  rw [Tryz.params3] at hA hval
  obtain ⟨v0, vs0, d0, ds0, p0, q0, hargs, rfl, rfl, h0, r0⟩ := trodAll_cons hA
  obtain ⟨rfl, rfl, rfl⟩ := trodAll_nil r0
  obtain rfl : args = #[v0] := by cases args; simp_all
  obtain ⟨rfl, rfl⟩ := trodVars_none hV
  obtain ⟨a0, rfl, rfl, rfl, w0⟩ := open_string Tryz.underlying9 (hval 0 9 v0 rfl rfl) h0
  clear hA0 hval0
  refine (walk a0 w0 W (tabAt_of hL hsh)).mono fun e W' ⟨he, bel⟩ => ?_
  subst he
  exact ⟨_, rfl, _, _, _, [], _, [], hW', trodAll_mk1 (shut_bool Tryz.underlying4 _), (trodAll_cons_mk (shut_string Tryz.underlying9 w0) trodAll_mk0), rfl, bel.frame _, fun h => by cases h⟩

theorem said : Rows.EscapeSignsSaid :=
  OpenClaim.holds_of_cond 3 Tryz.f3 rfl rfl rfl rfl rfl rfl rfl ⟨rfl, rfl, rfl, rfl, rfl⟩ rfl rfl rfl rfl rfl (by kernel_rfl) Tryz.func3 (by kernel_rfl)
    (of_decide_eq_true (by kernel_rfl)) (by unfold Func.isWrapper; first | (rw [if_pos (by decide +kernel)]; kernel_rfl) | (rw [if_neg (by decide +kernel)]; exact ⟨rfl, rfl⟩))
    (fun os started H enc _ F => by rw [OpenClaim.pre_eq_preRow]; exact lifted os started H enc F)
theorem plain (f : FuncId) (fn : Func) (hf : Tryz.pinned.checked.prog.funcNamed "flail/flaillaw21.EscapeSigns" = some f) (hfn : Tryz.pinned.checked.prog.funcs[f]? = some fn) :
    true = Tryz.pinned.checked.prog.looks [] ∧ ∀ (j : Nat) t, fn.params[j]? = some t → Tryz.pinned.checked.prog.wantsStandIn t = false := by
  obtain rfl : f = 3 := Option.some.inj ((show Tryz.prog.funcNamed "flail/flaillaw21.EscapeSigns" = some 3 by kernel_rfl).symm.trans hf) |>.symm
  obtain rfl : fn = Tryz.f3 := (Option.some.inj (Tryz.func3.symm.trans hfn)).symm
  refine ⟨by kernel_rfl, fun j t ht => ?_⟩
  rw [Tryz.params3] at ht
  have hm : t ∈ [9] := by first | simpa using Array.mem_of_getElem? ht | (have h := Array.mem_of_getElem? ht; simp at h ⊢; grind)
  have hall : ([9].all fun u => !Tryz.prog.wantsStandIn u) = true := by kernel_rfl
  exact (show Tryz.prog.wantsStandIn t = false by simpa using List.all_eq_true.1 hall t hm)
/-- the statement: the row's card -/
theorem proved : Rows.EscapeSignsCardSaid :=
  Claim7.holds_tied_plain_at .later [] _ _ _ _ said (fun _ h => by cases h) (by kernel_rfl) (fun _ h => by cases h) escapeSigns_row_tie rfl ⟨rfl, rfl⟩ (by kernel_rfl) rfl plain (by kernel_rfl)
end Go.Proofs.YtbcmfcddkegcoaaGreatDoor.escapeSigns
