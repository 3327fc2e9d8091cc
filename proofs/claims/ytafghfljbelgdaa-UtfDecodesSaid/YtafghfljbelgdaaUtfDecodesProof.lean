/-
  The law UtfDecodes of flail/flaillaw01 answers true for every input, and changes nothing that was there. No condition.
-/
import Derived.Test.YtafghfljbelgdaaRows
import Derived.Test.YtafghfljbelgdaaUtfRefDec
import Derived.WalkKit
import Derived.ProofKit
import Derived.OpenShut
import Derived.ShutString
import Derived.ChangeOld
import Derived.Below
namespace Go.Proofs.Ytafghfljbelgdaa.utfDecodes
open Go.ChangeShapes Go.WideShapes Go.ChangeAt Go.RowKit
open Go.ChangeMaps (open_string shut_string)
set_option linter.unusedVariables false

theorem own : ownKnob Try.prog.godebug = none := by kernel_rfl
theorem laidOut : laidOutB Try.prog = true := by kernel_rfl

/-- WHAT THE WALK IS TOLD OF A SLICE OF INTEGERS THAT CAME IN: it is nil; or it leads to a row of 'cap' cells, the numbers 'zs' (the first 'len' are its elements, the rest its spare room), each fitting its kind. -/
def IsRow (k : IntKind) (w : World) (a : Option Addr) (len cap : Nat) (zs : List Int) : Prop :=
  (a = none ∧ len = 0 ∧ cap = 0 ∧ zs = []) ∨
  ∃ x, a = some x ∧ len ≤ cap ∧ cap ≤ maxLen ∧ zs.length = cap ∧ (∀ i, i < zs.length → w.cell? (x.add i) = some (.int k (zs.getD i 0))) ∧ ∀ n ∈ zs, (Lit.int k n).wf = true

set_option maxRecDepth 100000 in
set_option maxHeartbeats 2000000 in
theorem walk (a0 : Option Addr) (len0 cap0 : Nat) (z0 : List Int) (w : World) (w0 : IsRow .u8 w a0 len0 cap0 z0) :
    Calls Try.prog 3 #[.slice a0 len0 cap0] w fun e w' => e = .returned (.bool true) ∧ Below w.heap.size w w' := by
  obtain ⟨l, hl, hb⟩ := isBytes_row w0
  clear w0
  by_cases hlen : 300 < len0
  · have Hb := Lib.hid hb
    clear hb hl
    go_enter Try.func3, Try.ntmps3
    go_wp2_with (go_at_call 10; refine (awake_any w).mono ?_; rintro e w1 ⟨rfl, hb1⟩)
    go_ret
    exact ⟨rfl, hb1⟩
  · have hlen' : len0 ≤ 300 := by omega
    obtain ⟨D, hD, -, -⟩ := named (dec l)
    obtain ⟨S, hS, lS, sS⟩ := named l
    go_enter Try.func3, Try.ntmps3
    go_wp2_with (fail)
    refine (awake_any w).mono ?_
    rintro e w8 ⟨rfl, hb1⟩
    have k := hb.kept hb1
    have cD : Hid (∀ w', Below w8.heap.size w8 w' → Calls Try.prog 11 #[.slice a0 len0 cap0] w' fun e w'' => e = .returned (.string D) ∧ Below w8.heap.size w8 w'') := Lib.hid (fun w' hb => by
      refine (decode_any _ _ w' (k.kept hb) (by omega)).mono ?_
      rintro e w'' ⟨rfl, hb''⟩
      exact ⟨by rw [hD], hb.trans (hb''.mono hb.size)⟩)
    have cE : Hid (∀ w', Below w8.heap.size w8 w' → Calls Try.prog 12 #[.slice a0 len0 cap0] w' fun e w'' => e = .returned (.string D) ∧ Below w8.heap.size w8 w'') := Lib.hid (fun w' hb => by
      refine (refDec_any _ _ _ _ w' (k.kept hb) (by omega)).mono ?_
      rintro e w'' ⟨rfl, hb''⟩
      exact ⟨by rw [hD], hb.trans (hb''.mono hb.size)⟩)
    obtain ⟨r, hr⟩ : ∃ r, Lib.validD l = r := ⟨_, rfl⟩
    have rD : Hid (∀ w', Below w8.heap.size w8 w' → Calls Try.prog 13 #[.string S] w' fun e w'' => e = .returned (.bool r) ∧ Below w8.heap.size w8 w'') := Lib.hid (fun w' hb => by
      refine (right_any S w').mono ?_
      rintro e w'' ⟨rfl, hb''⟩
      exact ⟨by rw [lS, hr], hb.trans (hb''.mono hb.size)⟩)
    have rE : Hid (∀ w', Below w8.heap.size w8 w' → Calls Try.prog 14 #[.string S] w' fun e w'' => e = .returned (.bool r) ∧ Below w8.heap.size w8 w'') := Lib.hid (fun w' hb => by
      refine (refRight_any S w' (by omega)).mono ?_
      rintro e w'' ⟨rfl, hb''⟩
      exact ⟨by rw [lS, hr], hb.trans (hb''.mono hb.size)⟩)
    have KS : Hid (∀ w', Below w8.heap.size w8 w' → Below w8.heap.size w8 w' ∧ (convert 22 9 (.slice a0 len0 cap0)).run Try.prog w' = .ok (.string S) w') := Lib.hid (fun w' h => ⟨h, by rw [(k.kept h).conv, hS]⟩)
    have FIN : Hid (∀ w', Below w8.heap.size w8 w' → Below w.heap.size w w') := Lib.hid (fun w' h => hb1.trans (h.mono hb1.size))
    have hd8 : Below w8.heap.size w8 w8.drew := (Below.refl _ w8).drew
    clear k hD hS lS sS hr hb hl hb1
    go_wp2_with (fail)
    first
      | go_region_held3 (fun w' => Below w8.heap.size w8 w' ∧ (convert 22 9 (.slice a0 len0 cap0)).run Try.prog w' = .ok (.string S) w')
          (exact KS.out _ ‹_›)
          (first
            | (go_at_call 11; (with_reducible refine (cD.out _ ‹_›).mono ?_); rintro e w' ⟨rfl, hb⟩)
            | (go_at_call 12; (with_reducible refine (cE.out _ ‹_›).mono ?_); rintro e w' ⟨rfl, hb⟩)
            | (go_at_call 13; (with_reducible refine (rD.out _ ‹_›).mono ?_); rintro e w' ⟨rfl, hb⟩)
            | (go_at_call 14; (with_reducible refine (rE.out _ ‹_›).mono ?_); rintro e w' ⟨rfl, hb⟩))
      | fail
    all_goals (go_wp2; go_ret; exact ⟨by simp, FIN.out _ ‹_›⟩)

set_option maxRecDepth 100000 in
theorem lifted (os : Os) (started : os.Started) (H : Type) (enc : TypeId × Value → H) :
    ReturnsInHanded {} Try.checked os 3 .any (Rows.utfDecodesSpec.pre6 enc Try.prog Try.f3 Rows.utfDecodesRow.domain false) (Rows.utfDecodesSpec.post enc Try.prog Try.f3 false true false false) := by
  refine returnsInHanded_of_change (C := Try.checked) own started (by kernel_rfl) Try.func3
    (ChangeSpec.witness6 (enc := enc) (C := Try.checked) false ⟨#[], #[.slice none 0 0], []⟩ 8 (by kernel_rfl) (by kernel_rfl) (by kernel_rfl) (by kernel_rfl)) ?_
  intro W base args ds gs before hval0 hW hcnd _
  have hval : ∀ (j : Nat) t v, Try.f3.params[j]? = some t → args[j]? = some v → Value.okWide Try.prog W .any base t v := hval0
  have hW' := hW
  obtain ⟨p, q, hA0, hV, rfl, hfz, hnd⟩ := hW
  have hA : DataW.TrodAll enc Try.prog W 0 (fun _ => true) true Try.f3.params.toList args.toList ds p := hA0
  rw [Try.params3] at hA hval
  obtain ⟨v0, vs0, d0, ds0, p0, q0, hargs, rfl, rfl, h0, r0⟩ := trodAll_cons hA
  obtain ⟨rfl, rfl, rfl⟩ := trodAll_nil r0
  obtain rfl : args = #[v0] := by cases args; simp_all
  obtain ⟨rfl, rfl⟩ := trodVars_none hV
  obtain ⟨a0, len0, cap0, rfl⟩ := okWide_slice Try.underlying22 (hval 0 22 v0 rfl rfl)
  have k0 := h0
  have lt0 : ∀ x ∈ p0, x.block < W.heap.size := by obtain ⟨m, hm⟩ := k0; exact DataW.trod_lt m _ _ _ hm
  obtain ⟨z0, w0⟩ : ∃ zs, IsRow .u8 W a0 len0 cap0 zs := by
    obtain ⟨fuel, hf⟩ := h0
    rcases open_ints Try.underlying22 Try.underlying5 (by kernel_rfl) hf with ⟨hcs, _⟩ | ⟨x, l, c, zs, hcs, _, hl, hm, hz, _, hcell, hwz⟩
    · simp [Value.cells] at hcs
      obtain ⟨rfl, rfl, rfl⟩ := hcs
      exact ⟨[], .inl ⟨rfl, rfl, rfl, rfl⟩⟩
    · simp [Value.cells] at hcs
      obtain ⟨rfl, rfl, rfl⟩ := hcs
      exact ⟨zs, .inr ⟨_, rfl, hl, hm, by simpa using hz, hcell, hwz⟩⟩
  clear hA0 hval0
  refine (walk a0 len0 cap0 z0 W w0).mono fun e W' ⟨he, bel⟩ => ?_
  subst he
  exact ⟨_, rfl, _, _, _, [], _, [], hW', trodAll_mk1 (shut_bool Try.underlying4 _), (trodAll_cons_mk (Below.trod laidOut (by kernel_rfl) (of_decide_eq_true (by kernel_rfl)) k0 bel lt0) trodAll_mk0), rfl, bel.frame _, fun h => by cases h⟩

theorem over : Rows.utfDecodesRow.holds Try.pinned (OpenSpec.ofChange Rows.utfDecodesSpec) :=
  OpenClaim.holds_of_wide 3 Try.f3 rfl rfl rfl rfl rfl rfl rfl ⟨rfl, rfl, rfl, rfl, rfl⟩ rfl rfl rfl rfl rfl (by kernel_rfl) Try.func3 (by kernel_rfl)
    (of_decide_eq_true (by kernel_rfl)) (by unfold Func.isWrapper; first | (rw [if_pos (by decide +kernel)]; kernel_rfl) | (rw [if_neg (by decide +kernel)]; exact ⟨rfl, rfl⟩))
    (fun os started H enc _ => lifted os started H enc)

/-- ████ THE STATEMENT ████ -/
theorem proved : Rows.UtfDecodesSaid := over
end Go.Proofs.Ytafghfljbelgdaa.utfDecodes
