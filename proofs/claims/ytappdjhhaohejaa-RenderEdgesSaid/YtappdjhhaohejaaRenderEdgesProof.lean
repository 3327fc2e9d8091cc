/-
  The law RenderEdges of flail/flaillaw19 answers true for every input, and changes nothing that was there. No condition.
-/
import Derived.Test.YtappdjhhaohejaaRows
import Derived.Test.YtappdjhhaohejaaRenAwake
import Derived.Test.YtappdjhhaohejaaTkFew
import Derived.Test.YtappdjhhaohejaaTkArg
import Derived.WalkKit
import Derived.ProofKit
import Derived.OpenShut
import Derived.ShutString
import Derived.ChangeOld
import Derived.Below
namespace Go.Proofs.Ytappdjhhaohejaa.renderEdges
open Go.ChangeShapes Go.WideShapes Go.ChangeAt Go.RowKit
open Go.ChangeMaps (open_string shut_string)
set_option linter.unusedVariables false

theorem own : ownKnob Try.prog.godebug = none := by kernel_rfl
theorem laidOut : laidOutB Try.prog = true := by kernel_rfl

/-- what is asked of each byte -/
theorem edge_byte (T : List TokP) (Z : ByteArray) (hZ : (⟨(renL T).toArray⟩ : ByteArray) = Z) : ∀ (k : Nat) (h : k < Z.size), Z[k] ≠ 0 ∧ Z[k] ≠ 13 ∧ (k = 0 ∨ k + 1 = Z.size → blkB Z[k] = false) := by
  have hE := ren_edged T
  have hZ2 : (renR ren0 T).flow.told = Z.data.toList := by rw [← hZ]; exact List.toList_toArray.symm
  intro k h
  have hk : k < Z.data.toList.length := by rw [← Lib.size_eq]; exact h
  obtain ⟨h1, h2⟩ := hE.told Z[k] (by rw [hZ2]; exact List.getElem_mem hk)
  refine ⟨h1, h2, ?_⟩
  rintro (rfl | hl)
  · exact hE.first Z[0] (by rw [hZ2, List.head?_eq_getElem?, List.getElem?_eq_getElem hk]; rfl)
  · refine hE.last Z[k] ?_
    rw [hZ2, List.getLast?_eq_getElem?, List.getElem?_eq_getElem (by omega)]
    have : Z.data.toList.length - 1 = k := by rw [← Lib.size_eq]; omega
    simp only [this]; rfl
theorem u8_test19 (c : UInt8) (n : Nat) (hn : n < 256) : (((c.toNat : Nat) : Int) == (n : Int)) = (c == UInt8.ofNat n) := by
  rw [Bool.eq_iff_iff, beq_iff_eq, beq_iff_eq]
  constructor
  · intro h
    have : c.toNat = n := by omega
    rw [← this]; simp
  · rintro rfl
    simp; omega
set_option maxRecDepth 100000 in
set_option maxHeartbeats 8000000 in
theorem walk (a0 : Option Addr) (len0 cap0 : Nat) (l0 : List TokP) (w : World) (w0 : IsToks w a0 len0 cap0 l0) :
    Calls Try.prog 4 #[.slice a0 len0 cap0] w fun e w' => e = .returned (.bool true) ∧ Below w.heap.size w w' := by
  have hHT := (ren_here w)
  have HW := Lib.hid hHT
  clear hHT
  skip
  have HL := Lib.hid w0
  have hlc := w0.2.1
  have hm := w0.2.2.1
  unfold maxLen at hm
  clear w0
  go_enter Try.func4, Try.ntmps4
  go_wp2_with (fail)
  refine (renAwake_any w HW.out).mono ?_
  rintro e w1 ⟨rfl, c1⟩
  have B1 := Lib.hid c1
  clear c1
  go_wp2_with (fail)
  refine (refFew15_any a0 len0 cap0 l0 w1 (HL.out.below B1.out (Nat.le_refl _))).mono ?_
  rintro e w2 ⟨⟨few, rfl, hfew⟩, c2⟩
  have B2 := Lib.hid (B1.out.trans (c2.mono B1.out.size))
  have HF := Lib.hid hfew
  clear c2 hfew
  cases few
  · go_wp2
    go_ret
    exact ⟨rfl, B2.out⟩
  obtain ⟨h60, h200⟩ := HF.out rfl
  have H200 := Lib.hid (show ∀ t ∈ l0, t.text.length ≤ 65536 from fun t ht => Nat.le_trans (h200 t ht) (by decide))
  have hsz := ren_len l0 200 (fun t ht => h200 t ht)
  have C1 := fun w' (hb : Below w.heap.size w w') h => Lib.hid (ren_any a0 len0 cap0 l0 w' (HL.out.below hb (Nat.le_refl _)).bare (by omega) H200.out h)
  obtain ⟨Z, hZ⟩ : ∃ Z, (⟨(renL l0).toArray⟩ : ByteArray) = Z := ⟨_, rfl⟩
  have HE := Lib.hid (edge_byte l0 Z hZ)
  have hZs : Z.size ≤ 100000 := by
    have := HL.out.1
    have e : Z.size = (renL l0).length := by rw [← hZ, Lib.size_eq, List.toList_toArray]
    have : l0.length * 301 ≤ 60 * 301 := Nat.mul_le_mul_right _ (by omega)
    omega
  rw [hZ] at C1
  clear h200 HF hZ hsz
  go_wp2_with (fail)
  refine (C1 _ B2.out (HW.out.below B2.out)).out.mono ?_
  rintro e w3 ⟨rfl, c3⟩
  have B3 := Lib.hid (B2.out.trans (c3.mono B2.out.size))
  clear c3 C1
  go_wp2
  go_loopw [6] (fun v w10 => ∃ j : Nat, v = .int .i64 (j : Int) ∧ j ≤ Z.size ∧ w3 = w10) (fun v _ => Z.size - (intOf v).toNat)
  case atStart => exact ⟨0, rfl, Nat.zero_le _, rfl⟩
  case round =>
    obtain ⟨j, rfl, hj, rfl⟩ := hrel
    by_cases hjt : j < Z.size
    · obtain ⟨z0, z13, ze⟩ := HE.out j hjt
      obtain ⟨c, hc⟩ : ∃ c, Z[j] = c := ⟨_, rfl⟩
      rw [hc] at z0 z13 ze
      obtain ⟨q, hq⟩ : ∃ q : Int, ((c.toNat : Nat) : Int) = q := ⟨_, rfl⟩
      have hsq : ((Z[j].toNat : Nat) : Int) = q := by rw [hc]; exact hq
      have b0 : (q == 0) = false := by rw [← hq, show (((c.toNat : Nat) : Int) == 0) = (c == 0) from u8_test19 c 0 (by decide)]; exact beq_eq_false_iff_ne.2 z0
      have b13 : (q == 13) = false := by rw [← hq, show (((c.toNat : Nat) : Int) == 13) = (c == 13) from u8_test19 c 13 (by decide)]; exact beq_eq_false_iff_ne.2 z13
      obtain ⟨m, hm1⟩ : ∃ m : Nat, (Z.size : Int) - 1 = (m : Int) := ⟨Z.size - 1, by omega⟩
      by_cases hedge : j = 0 ∨ j + 1 = Z.size
      · have hb := ze hedge
        have b9 : (q == 9) = false := by rw [← hq, show (((c.toNat : Nat) : Int) == 9) = (c == 9) from u8_test19 c 9 (by decide)]; exact beq_eq_false_iff_ne.2 (fun e => by rw [e] at hb; cases hb)
        have b10 : (q == 10) = false := by rw [← hq, show (((c.toNat : Nat) : Int) == 10) = (c == 10) from u8_test19 c 10 (by decide)]; exact beq_eq_false_iff_ne.2 (fun e => by rw [e] at hb; cases hb)
        have b12 : (q == 12) = false := by rw [← hq, show (((c.toNat : Nat) : Int) == 12) = (c == 12) from u8_test19 c 12 (by decide)]; exact beq_eq_false_iff_ne.2 (fun e => by rw [e] at hb; cases hb)
        have b32 : (q == 32) = false := by rw [← hq, show (((c.toNat : Nat) : Int) == 32) = (c == 32) from u8_test19 c 32 (by decide)]; exact beq_eq_false_iff_ne.2 (fun e => by rw [e] at hb; cases hb)
        clear z0 z13 ze hb hq hc
        by_cases hj0 : j = 0
        · subst hj0
          clear hedge
          go_wp2
          go_roundw
          case rel => exact ⟨1, by go_num, by omega, trivial⟩
          case measure => simp [intOf]; omega
        · have e1 : ((j : Int) == 0) = false := beq_eq_false_iff_ne.2 (by omega)
          have e2 : ((j : Int) == (m : Int)) = true := beq_iff_eq.2 (by omega)
          clear hedge
          go_wp2
          go_roundw
          case rel => exact ⟨j + 1, by go_num, by omega, trivial⟩
          case measure => simp [intOf]; omega
      · have e1 : ((j : Int) == 0) = false := beq_eq_false_iff_ne.2 (by omega)
        have e2 : ((j : Int) == (m : Int)) = false := beq_eq_false_iff_ne.2 (by omega)
        clear hedge z0 z13 ze hq hc
        go_wp2
        go_roundw
        case rel => exact ⟨j + 1, by go_num, by omega, trivial⟩
        case measure => simp [intOf]; omega
    · obtain rfl : j = Z.size := by omega
      go_wp2
      go_ret
      exact ⟨rfl, B3.out⟩

set_option maxRecDepth 100000 in
theorem lifted (os : Os) (started : os.Started) (H : Type) (enc : TypeId × Value → H) :
    ReturnsInHanded {} Try.checked os 4 .any (Rows.renderEdgesSpec.pre6 enc Try.prog Try.f4 Rows.renderEdgesRow.domain false) (Rows.renderEdgesSpec.post enc Try.prog Try.f4 false true false false) := by
  refine returnsInHanded_of_change (C := Try.checked) own started (by kernel_rfl) Try.func4
    (ChangeSpec.witness6 (enc := enc) (C := Try.checked) false ⟨#[], #[.slice none 0 0], []⟩ 8 (by kernel_rfl) (by kernel_rfl) (by kernel_rfl) (by kernel_rfl)) ?_
  intro W base args ds gs before hval0 hW hcnd _
  have hval : ∀ (j : Nat) t v, Try.f4.params[j]? = some t → args[j]? = some v → Value.okWide Try.prog W .any base t v := hval0
  have hW' := hW
  obtain ⟨p, q, hA0, hV, rfl, hfz, hnd⟩ := hW
  have hA : DataW.TrodAll enc Try.prog W 0 (fun _ => true) true Try.f4.params.toList args.toList ds p := hA0
  rw [Try.params4] at hA hval
  obtain ⟨v0, vs0, d0, ds0, p0, q0, hargs, rfl, rfl, h0, r0⟩ := trodAll_cons hA
  obtain ⟨rfl, rfl, rfl⟩ := trodAll_nil r0
  obtain rfl : args = #[v0] := by cases args; simp_all
  obtain ⟨rfl, rfl⟩ := trodVars_none hV
  obtain ⟨a0, len0, cap0, rfl⟩ := okWide_slice Try.underlying22 (hval 0 22 v0 rfl rfl)
  have k0 := h0
  have lt0 : ∀ x ∈ p0, x.block < W.heap.size := by obtain ⟨m, hm⟩ := k0; exact DataW.trod_lt m _ _ _ hm
  obtain ⟨l0, w0⟩ : ∃ l, IsToks W a0 len0 cap0 l := by
    obtain ⟨fuel, hf⟩ := h0
    exact isToks_arg (by simp [Value.cells]) hf
  clear hA0 hval0
  refine (walk a0 len0 cap0 l0 W w0).mono fun e W' ⟨he, bel⟩ => ?_
  subst he
  exact ⟨_, rfl, _, _, _, [], _, [], hW', trodAll_mk1 (shut_bool Try.underlying4 _), (trodAll_cons_mk (Below.trod laidOut (by kernel_rfl) (of_decide_eq_true (by kernel_rfl)) k0 bel lt0) trodAll_mk0), rfl, bel.frame _, fun h => by cases h⟩

theorem over : Rows.renderEdgesRow.holds Try.pinned (OpenSpec.ofChange Rows.renderEdgesSpec) :=
  OpenClaim.holds_of_wide 4 Try.f4 rfl rfl rfl rfl rfl rfl rfl ⟨rfl, rfl, rfl, rfl, rfl⟩ rfl rfl rfl rfl rfl (by kernel_rfl) Try.func4 (by kernel_rfl)
    (of_decide_eq_true (by kernel_rfl)) (by unfold Func.isWrapper; first | (rw [if_pos (by decide +kernel)]; kernel_rfl) | (rw [if_neg (by decide +kernel)]; exact ⟨rfl, rfl⟩))
    (fun os started H enc _ => lifted os started H enc)

/-- the statement -/
theorem proved : Rows.RenderEdgesSaid := over
end Go.Proofs.Ytappdjhhaohejaa.renderEdges
