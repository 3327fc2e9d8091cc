/-
  The law ExtractClean of flail/flaillaw20 answers true for every input, and changes nothing that was there. Condition, which the card ties to the program's text: when the call begins, the package variables that the row lists hold what that text lays in them (math/bits.deBruijn32tab, math/bits.deBruijn64tab, internal/strconv.uint64pow10, strconv.ErrRange, strconv.ErrSyntax, flail/number.others).
-/
import Derived.Test.YtpmdcppnlggckaaGreatDoorRows
import Derived.Test.YtpmdcppnlggckaaGreatDoorExtAwake
import Derived.Test.YtpmdcppnlggckaaGreatDoorCards
import Derived.Test.YtpmdcppnlggckaaGreatDoorP6
import Derived.WalkKit
import Derived.ProofKit
import Derived.OpenShut
import Derived.ShutString
import Derived.ChangeOld
import Derived.Below
namespace Go.Proofs.YtpmdcppnlggckaaGreatDoor.extractClean
open Go.ChangeShapes Go.WideShapes Go.ChangeAt Go.RowKit
open Go.ChangeMaps (open_string shut_string)
set_option linter.unusedVariables false

theorem own : ownKnob Tryz.prog.godebug = none := by kernel_rfl
theorem laidOut : laidOutB Tryz.prog = true := by kernel_rfl

/-- WHAT THE WALK IS TOLD OF A SLICE OF INTEGERS THAT CAME IN: it is nil; or it leads to a row of 'cap' cells, the numbers 'zs' (the first 'len' are its elements, the rest its spare room), each fitting its kind. -/
def IsRow (k : IntKind) (w : World) (a : Option Addr) (len cap : Nat) (zs : List Int) : Prop :=
  (a = none ∧ len = 0 ∧ cap = 0 ∧ zs = []) ∨
  ∃ x, a = some x ∧ len ≤ cap ∧ cap ≤ maxLen ∧ zs.length = cap ∧ (∀ i, i < zs.length → w.cell? (x.add i) = some (.int k (zs.getD i 0))) ∧ ∀ n ∈ zs, (Lit.int k n).wf = true

/-- no byte 0, no 13, at the edges no blank -/
theorem clean_at (s : ByteArray) (f : FloP) (h : Edged f) (hs : s.data.toList = f.told) (i : Nat) (hi : i < s.size) :
    (((s[i].toNat : Nat) : Int) == 0) = false ∧ (((s[i].toNat : Nat) : Int) == 13) = false ∧ ((i = 0 ∨ i + 1 = s.size) → (((s[i].toNat : Nat) : Int) == 9) = false ∧ (((s[i].toNat : Nat) : Int) == 10) = false ∧ (((s[i].toNat : Nat) : Int) == 12) = false ∧ (((s[i].toNat : Nat) : Int) == 32) = false) := by
  have hl : i < f.told.length := by rw [← hs, ← Lib.size_eq]; exact hi
  have he : f.told[i] = s[i] := by
    have : s.data.toList[i]'(by rw [← Lib.size_eq]; exact hi) = s[i] := rfl
    rw [← this]; congr 1; exact hs.symm
  have hn : ∀ d : UInt8, s[i] ≠ d → (((s[i].toNat : Nat) : Int) == (d.toNat : Int)) = false := fun d hd => by
    rw [beq_eq_false_iff_ne]
    intro e
    exact hd (UInt8.toNat_inj.1 (by omega))
  have h0 := h.told s[i] (he ▸ List.getElem_mem hl)
  refine ⟨hn 0 h0.1, hn 13 h0.2, fun hedge => ?_⟩
  have hb : blkB s[i] = false := by
    rcases hedge with rfl | hlast
    · refine h.first _ ?_
      rw [List.head?_eq_getElem?, List.getElem?_eq_getElem hl, he]
    · refine h.last _ ?_
      rw [List.getLast?_eq_getElem?, show f.told.length - 1 = i by rw [← hs, ← Lib.size_eq]; omega, List.getElem?_eq_getElem hl, he]
  have hd : ∀ d : UInt8, blkB d = true → s[i] ≠ d := fun d h1 e => by rw [e, h1] at hb; cases hb
  exact ⟨hn 9 (hd 9 (by decide)), hn 10 (hd 10 (by decide)), hn 12 (hd 12 (by decide)), hn 32 (hd 32 (by decide))⟩
set_option maxRecDepth 100000 in
set_option maxHeartbeats 8000000 in
theorem walk (a0 : Option Addr) (len0 cap0 : Nat) (z0 : List Int) (w : World) (hT : LaidAt w) (w0 : IsRow .u8 w a0 len0 cap0 z0) :
    Calls Tryz.prog 4 #[.slice a0 len0 cap0] w fun e w' => e = .returned (.bool true) ∧ Below w.heap.size w w' := by
  obtain ⟨l, hl, hb⟩ := isBytes_row w0
  clear w0
  have HW := Lib.hid hT
  clear hT
  by_cases hlen : 300 < len0
  · have Hb := Lib.hid hb
    clear hb hl
    go_enter Tryz.func4, Tryz.ntmps4
    go_wp2_with (go_at_call 9; refine (extAwake_any w HW.out).mono ?_; rintro e w1 ⟨rfl, hb1⟩)
    go_ret
    exact ⟨rfl, hb1⟩
  · have hlen' : len0 ≤ 300 := by omega
    have HX := Lib.hid (ext_ok l (by omega))
    have HB := Lib.hid hb
    obtain ⟨X, hX⟩ : ∃ X : ByteArray, (⟨(extL l).toArray⟩ : ByteArray) = X := ⟨_, rfl⟩
    have dX : X.data.toList = extL l := by rw [← hX, List.toList_toArray]
    have sX : X.size ≤ 3 * len0 := by rw [Lib.size_eq, dX, ← hl]; exact ext_len l
    have HV : Hid (Lib.validD X.data.toList = true) := Lib.hid (by rw [dX]; exact ext_sg l)
    have HC := Lib.hid (clean_at X _ (ext_edged l) dX)
    have HXX := Lib.hid hX
    have d3 : ¬ (3 * (len0 : Int) < (X.size : Int)) := by omega
    have d4 : (X.size : Int) ≤ 3 * (len0 : Int) := by omega
    clear hX hb hl hlen dX
    go_enter Tryz.func4, Tryz.ntmps4
    go_wp2_with (fail)
    refine (extAwake_any w HW.out).mono ?_
    rintro e w1 ⟨rfl, c1⟩
    have B1 := Lib.hid c1
    clear c1
    go_wp2_with (fail)
    refine (ext_any _ l _ (HB.out.kept B1.out) HX.out (HW.out.below B1.out)).mono ?_
    rintro e w2 ⟨rfl, c2⟩
    rw [HXX.out]
    have B2 := Lib.hid (B1.out.trans (c2.mono B1.out.size))
    clear c2
    go_wp2
    go_loopw [5] (fun v wr => ∃ i : Nat, v = .int .i64 (i : Int) ∧ w2 = wr ∧ i ≤ X.size) (fun v _ => X.size - (intOf v).toNat)
    case atStart => exact ⟨0, rfl, rfl, Nat.zero_le _⟩
    case round =>
      obtain ⟨i, rfl, rfl, hi⟩ := hrel
      by_cases hlt : i < X.size
      · obtain ⟨e0, e13, hedge⟩ := HC.out i hlt
        by_cases h0 : i = 0
        · subst h0
          obtain ⟨e9, e10, e12, e32⟩ := hedge (.inl rfl)
          clear hedge
          go_wp2
          go_roundw
          case rel => exact ⟨1, rfl, trivial, by omega⟩
          case measure => simp [intOf]; omega
        · have f1 : ((i : Int) == 0) = false := beq_eq_false_iff_ne.2 (by omega)
          by_cases h1 : i + 1 = X.size
          · obtain ⟨e9, e10, e12, e32⟩ := hedge (.inr h1)
            have f2 : ((i : Int) == (X.size : Int) - 1) = true := beq_iff_eq.2 (by omega)
            clear hedge h1
            go_wp2
            go_roundw
            case rel => exact ⟨i + 1, by simp, trivial, by omega⟩
            case measure => simp [intOf]; omega
          · have f2 : ((i : Int) == (X.size : Int) - 1) = false := beq_eq_false_iff_ne.2 (by omega)
            clear hedge h1
            go_wp2
            go_roundw
            case rel => exact ⟨i + 1, by simp, trivial, by omega⟩
            case measure => simp [intOf]; omega
      · go_wp2_with (fail)
        refine (right_any X _).mono ?_
        rintro e w3 ⟨rfl, c3⟩
        rw [HV.out]
        have B3 := Lib.hid (B2.out.trans (c3.mono B2.out.size))
        clear c3
        go_wp2
        go_ret
        exact ⟨ret_bool (by simp), B3.out⟩

theorem laid_met (os : Os) : laidMet Tryz.prog Rows.extractCleanRow.laid ((laidWorld os).forCall (fun _ _ => 0) ⟨#[], #[.slice none 0 0], []⟩).memory :=
  laidMet_of_run' 8 (by kernel_rfl) (by kernel_rfl)
theorem reads (os : Os) {H : Type} (enc : TypeId × Value → H) : ∃ places, DataW.whole enc Tryz.prog ((laidWorld os).forCall (fun _ _ => 0) ⟨#[], #[.slice none 0 0], []⟩).memory Tryz.f4.params.toList Rows.extractCleanSpec.vars false (#[.slice none 0 0] : Array Value).toList 8 = some ([.nil], [], places) :=
  ⟨[], by kernel_rfl⟩
set_option maxRecDepth 100000 in
theorem lifted (os : Os) (started : os.Started) (H : Type) (enc : TypeId × Value → H) (F : Stop.Interp) :
    ReturnsInHanded {} Tryz.checked os 4 .any ((OpenSpec.ofChange Rows.extractCleanSpec).preRow enc Tryz.prog Tryz.f4 Rows.extractCleanRow.domain false Rows.extractCleanRow.laid) (((OpenSpec.ofChange Rows.extractCleanSpec).at F).post enc Tryz.prog Tryz.f4 false true false false) := by
  obtain ⟨places, hx⟩ := reads os enc
  refine returnsInHanded_of_row (C := Tryz.checked) (s := OpenSpec.ofChange Rows.extractCleanSpec) own started (by kernel_rfl) Tryz.func4
    (witness_row_at (enc := enc) (C := Tryz.checked) false (laidWorld os) #[.slice none 0 0] rfl (by kernel_rfl) (by kernel_rfl) (by kernel_rfl)
      (OpenSpec.preRow_of_cond 8 hx (by kernel_rfl) (fun k hk => by cases hk) (by kernel_rfl) (laid_met os))) ?_
  intro W base args ds gs before hval0 hW _ _ _ hL hsh _
  have hval : ∀ (j : Nat) t v, Tryz.f4.params[j]? = some t → args[j]? = some v → Value.okWide Tryz.prog W .any base t v := hval0
  have hW' := hW
  obtain ⟨p, q, hA0, hV, rfl, hfz, hnd⟩ := hW
  have hA : DataW.TrodAll enc Tryz.prog W 0 (fun _ => true) true Tryz.f4.params.toList args.toList ds p := hA0
  rw [Tryz.params4] at hA hval
  obtain ⟨v0, vs0, d0, ds0, p0, q0, hargs, rfl, rfl, h0, r0⟩ := trodAll_cons hA
  obtain ⟨rfl, rfl, rfl⟩ := trodAll_nil r0
  obtain rfl : args = #[v0] := by cases args; simp_all
  obtain ⟨rfl, rfl⟩ := trodVars_none hV
  obtain ⟨a0, len0, cap0, rfl⟩ := okWide_slice Tryz.underlying22 (hval 0 22 v0 rfl rfl)
  have k0 := h0
  have lt0 : ∀ x ∈ p0, x.block < W.heap.size := by obtain ⟨m, hm⟩ := k0; exact DataW.trod_lt m _ _ _ hm
  obtain ⟨z0, w0⟩ : ∃ zs, IsRow .u8 W a0 len0 cap0 zs := by
    obtain ⟨fuel, hf⟩ := h0
    rcases open_ints Tryz.underlying22 Tryz.underlying5 (by kernel_rfl) hf with ⟨hcs, _⟩ | ⟨x, l, c, zs, hcs, _, hl, hm, hz, _, hcell, hwz⟩
    · simp [Value.cells] at hcs
      obtain ⟨rfl, rfl, rfl⟩ := hcs
      exact ⟨[], .inl ⟨rfl, rfl, rfl, rfl⟩⟩
    · simp [Value.cells] at hcs
      obtain ⟨rfl, rfl, rfl⟩ := hcs
      exact ⟨zs, .inr ⟨_, rfl, hl, hm, by simpa using hz, hcell, hwz⟩⟩
  clear hA0 hval0
  refine (walk a0 len0 cap0 z0 W (tabAt_of hL hsh) w0).mono fun e W' ⟨he, bel⟩ => ?_
  subst he
  exact ⟨_, rfl, _, _, _, [], _, [], hW', trodAll_mk1 (shut_bool Tryz.underlying4 _), (trodAll_cons_mk (Below.trod laidOut (by kernel_rfl) (of_decide_eq_true (by kernel_rfl)) k0 bel lt0) trodAll_mk0), rfl, bel.frame _, fun h => by cases h⟩

theorem said : Rows.ExtractCleanSaid :=
  OpenClaim.holds_of_cond 4 Tryz.f4 rfl rfl rfl rfl rfl rfl rfl ⟨rfl, rfl, rfl, rfl, rfl⟩ rfl rfl rfl rfl rfl (by kernel_rfl) Tryz.func4 (by kernel_rfl)
    (of_decide_eq_true (by kernel_rfl)) (by unfold Func.isWrapper; first | (rw [if_pos (by decide +kernel)]; kernel_rfl) | (rw [if_neg (by decide +kernel)]; exact ⟨rfl, rfl⟩))
    (fun os started H enc _ F => by rw [OpenClaim.pre_eq_preRow]; exact lifted os started H enc F)
theorem plain (f : FuncId) (fn : Func) (hf : Tryz.pinned.checked.prog.funcNamed "flail/flaillaw20.ExtractClean" = some f) (hfn : Tryz.pinned.checked.prog.funcs[f]? = some fn) :
    true = Tryz.pinned.checked.prog.looks [] ∧ ∀ (j : Nat) t, fn.params[j]? = some t → Tryz.pinned.checked.prog.wantsStandIn t = false := by
  obtain rfl : f = 4 := Option.some.inj ((show Tryz.prog.funcNamed "flail/flaillaw20.ExtractClean" = some 4 by kernel_rfl).symm.trans hf) |>.symm
  obtain rfl : fn = Tryz.f4 := (Option.some.inj (Tryz.func4.symm.trans hfn)).symm
  refine ⟨by kernel_rfl, fun j t ht => ?_⟩
  rw [Tryz.params4] at ht
  have hm : t ∈ [22] := by first | simpa using Array.mem_of_getElem? ht | (have h := Array.mem_of_getElem? ht; simp at h ⊢; grind)
  have hall : ([22].all fun u => !Tryz.prog.wantsStandIn u) = true := by kernel_rfl
  exact (show Tryz.prog.wantsStandIn t = false by simpa using List.all_eq_true.1 hall t hm)
/-- the statement: the row's card -/
theorem proved : Rows.ExtractCleanCardSaid :=
  Claim7.holds_tied_plain_at .later [] _ _ _ _ said (fun _ h => by cases h) (by kernel_rfl) (fun _ h => by cases h) extractClean_row_tie rfl ⟨rfl, rfl⟩ (by kernel_rfl) rfl plain (by kernel_rfl)
end Go.Proofs.YtpmdcppnlggckaaGreatDoor.extractClean
