/-
  The law AttrsPlain of flail/flaillaw08 answers true for every input, and changes nothing that was there. Condition, which the card ties to the program's text: when the call begins, the package variables that the row lists hold what that text lays in them (math/bits.deBruijn32tab, math/bits.deBruijn64tab, internal/strconv.uint64pow10, strconv.ErrRange, strconv.ErrSyntax, flail/number.others).
-/
import Derived.Test.YtpdmnnfbdeiejaaDoorRows
import Derived.Test.YtpdmnnfbdeiejaaDoorAttAwake
import Derived.Test.YtpdmnnfbdeiejaaDoorAttWrit
import Derived.Test.YtpdmnnfbdeiejaaDoorCards
import Derived.Test.YtpdmnnfbdeiejaaDoorP6
import Derived.WalkKit
import Derived.ProofKit
import Derived.ChangeOld
import Derived.Below
import Derived.OpenShut
import Derived.ShutString
namespace Go.Proofs.YtpdmnnfbdeiejaaDoor.attrsPlain
open Go.ChangeShapes Go.WideShapes Go.ChangeAt Go.RowKit
open Go.ChangeMaps (open_string shut_string)
set_option linter.unusedVariables false      -- a walk need not use every 'w<i>' (that an integer argument fits its kind)

theorem own : ownKnob Tryd.prog.godebug = none := by kernel_rfl

def okV (x : UInt8) : Prop := (spB x || x == 62) = false ∧ x ≠ 34 ∧ x ≠ 39 ∧ x ≠ 38 ∧ x ≠ 0
theorem okV_of (x : UInt8) (h32 : ¬ ((x.toNat : Nat) : Int) = 32) (h9 : ¬ ((x.toNat : Nat) : Int) = 9) (h10 : ¬ ((x.toNat : Nat) : Int) = 10) (h12 : ¬ ((x.toNat : Nat) : Int) = 12) (h62 : ¬ ((x.toNat : Nat) : Int) = 62) (h34 : ¬ ((x.toNat : Nat) : Int) = 34) (h39 : ¬ ((x.toNat : Nat) : Int) = 39) (h38 : ¬ ((x.toNat : Nat) : Int) = 38) (h0 : ¬ ((x.toNat : Nat) : Int) = 0) : okV x := by
  refine ⟨?_, u8_ne _ 34 (by decide) h34, u8_ne _ 39 (by decide) h39, u8_ne _ 38 (by decide) h38, u8_ne _ 0 (by decide) h0⟩
  have e62 : (x == 62) = false := beq_eq_false_iff_ne.2 (u8_ne _ 62 (by decide) h62)
  rw [e62, Bool.or_false]
  unfold spB spaceI
  exact decide_eq_false (by rintro (h | h | h | h); exact h9 h; exact h10 h; exact h12 h; exact h32 h)
theorem plain_next (s : ByteArray) (i : Nat) (h : i < s.size) (hall : ∀ x ∈ s.data.toList.take i, okV x) (hx : okV s[i]) : ∀ x ∈ s.data.toList.take (i + 1), okV x := by
  intro x hm
  rw [take_snoc s i h, List.mem_append, List.mem_singleton] at hm
  rcases hm with hm | rfl
  · exact hall x hm
  · exact hx
theorem first_text (v : ByteArray) (hne : 0 < v.size) (hv : ∀ x ∈ v.data.toList, okV x) : attrsV (⟨#[117, 61]⟩ ++ v ++ ⟨#[62]⟩ : ByteArray).data.toList 0 = ([([117], v.data.toList)], false, (v.size : Int) + 3, true) := by
  have hn : v.data.toList ≠ [] := List.length_pos_iff.1 (by rw [← Lib.size_eq]; exact hne)
  have e : (⟨#[117, 61]⟩ ++ v ++ ⟨#[62]⟩ : ByteArray).data.toList = 117 :: 61 :: (v.data.toList ++ [62]) := by
    simp only [ByteArray.data_append, Array.toList_append]; rfl
  rw [e, zero_some _ _ _ _ (plain_first v.data.toList hn hv), Lib.size_eq]; rfl
theorem second_text (v : ByteArray) (hne : 0 < v.size) (hv : ∀ x ∈ v.data.toList, okV x) : attrsV (⟨#[117, 32, 61, 32]⟩ ++ v ++ ⟨#[32, 119, 62]⟩ : ByteArray).data.toList 0 = ([([117], v.data.toList), ([119], [])], false, (v.size : Int) + 7, true) := by
  have hn : v.data.toList ≠ [] := List.length_pos_iff.1 (by rw [← Lib.size_eq]; exact hne)
  have e : (⟨#[117, 32, 61, 32]⟩ ++ v ++ ⟨#[32, 119, 62]⟩ : ByteArray).data.toList = 117 :: 32 :: 61 :: 32 :: (v.data.toList ++ [32, 119, 62]) := by
    simp only [ByteArray.data_append, Array.toList_append]; rfl
  rw [e, zero_some _ _ _ _ (plain_second v.data.toList hn hv), Lib.size_eq]; rfl
set_option maxRecDepth 100000 in
set_option maxHeartbeats 8000000 in
theorem walk (a0 : ByteArray) (w0 : a0.size ≤ maxLen) (w : World) (hT : LaidAt w) :
    Calls Tryd.prog 6 #[.string a0] w fun e w' => e = .returned (.bool true) ∧ Below w.heap.size w w' := by
  clear w0
  have HW := Lib.hid hT
  clear hT
  by_cases hl0 : 60 < a0.size
  · have d0 : decide ((60 : Int) < (a0.size : Int)) = true := decide_eq_true (by omega)
    go_enter Tryd.func6, Tryd.ntmps6
    go_wp2_with (fail)
    refine (attAwake_any w HW.out).mono ?_
    rintro e w1 ⟨rfl, c1⟩
    go_wp2
    go_ret
    exact ⟨rfl, c1⟩
  have d0 : decide ((60 : Int) < (a0.size : Int)) = false := decide_eq_false (by omega)
  by_cases hl1 : a0.size = 0
  · have d1 : ((a0.size : Int) == 0) = true := beq_iff_eq.2 (by omega)
    clear hl1 hl0
    go_enter Tryd.func6, Tryd.ntmps6
    go_wp2_with (fail)
    refine (attAwake_any w HW.out).mono ?_
    rintro e w1 ⟨rfl, c1⟩
    go_wp2
    go_ret
    exact ⟨rfl, c1⟩
  have d1 : ((a0.size : Int) == 0) = false := beq_eq_false_iff_ne.2 (by omega)
  have hp : 0 < a0.size := Nat.pos_of_ne_zero hl1
  have hs : a0.size ≤ 60 := by omega
  clear hl1 hl0
  go_enter Tryd.func6, Tryd.ntmps6
  go_wp2_with (fail)
  refine (attAwake_any w HW.out).mono ?_
  rintro e w1 ⟨rfl, c1⟩
  go_wp2
  clear d0 d1
  go_loopw [4] (fun v wr => ∃ i : Nat, v = .int .i64 (i : Int) ∧ i ≤ a0.size ∧ (∀ x ∈ a0.data.toList.take i, okV x) ∧ w1 = wr) (fun v _ => a0.size - (intOf v).toNat)
  case atStart => exact ⟨0, rfl, Nat.zero_le _, by simp, rfl⟩
  case round =>
    obtain ⟨i, rfl, hi, hall, rfl⟩ := hrel
    by_cases hlt : i < a0.size
    · by_cases h32 : ((a0[i].toNat : Nat) : Int) = 32
      · have b32 : (((a0[i].toNat : Nat) : Int) == 32) = true := beq_iff_eq.2 h32
        clear hall h32
        go_wp2
        go_ret
        exact ⟨rfl, c1⟩
      · by_cases h9 : ((a0[i].toNat : Nat) : Int) = 9
        · have b32 : (((a0[i].toNat : Nat) : Int) == 32) = false := beq_eq_false_iff_ne.2 h32
          have b9 : (((a0[i].toNat : Nat) : Int) == 9) = true := beq_iff_eq.2 h9
          clear hall h32 h9
          go_wp2
          go_ret
          exact ⟨rfl, c1⟩
        · by_cases h10 : ((a0[i].toNat : Nat) : Int) = 10
          · have b32 : (((a0[i].toNat : Nat) : Int) == 32) = false := beq_eq_false_iff_ne.2 h32
            have b9 : (((a0[i].toNat : Nat) : Int) == 9) = false := beq_eq_false_iff_ne.2 h9
            have b10 : (((a0[i].toNat : Nat) : Int) == 10) = true := beq_iff_eq.2 h10
            clear hall h32 h9 h10
            go_wp2
            go_ret
            exact ⟨rfl, c1⟩
          · by_cases h12 : ((a0[i].toNat : Nat) : Int) = 12
            · have b32 : (((a0[i].toNat : Nat) : Int) == 32) = false := beq_eq_false_iff_ne.2 h32
              have b9 : (((a0[i].toNat : Nat) : Int) == 9) = false := beq_eq_false_iff_ne.2 h9
              have b10 : (((a0[i].toNat : Nat) : Int) == 10) = false := beq_eq_false_iff_ne.2 h10
              have b12 : (((a0[i].toNat : Nat) : Int) == 12) = true := beq_iff_eq.2 h12
              clear hall h32 h9 h10 h12
              go_wp2
              go_ret
              exact ⟨rfl, c1⟩
            · by_cases h62 : ((a0[i].toNat : Nat) : Int) = 62
              · have b32 : (((a0[i].toNat : Nat) : Int) == 32) = false := beq_eq_false_iff_ne.2 h32
                have b9 : (((a0[i].toNat : Nat) : Int) == 9) = false := beq_eq_false_iff_ne.2 h9
                have b10 : (((a0[i].toNat : Nat) : Int) == 10) = false := beq_eq_false_iff_ne.2 h10
                have b12 : (((a0[i].toNat : Nat) : Int) == 12) = false := beq_eq_false_iff_ne.2 h12
                have b62 : (((a0[i].toNat : Nat) : Int) == 62) = true := beq_iff_eq.2 h62
                clear hall h32 h9 h10 h12 h62
                go_wp2
                go_ret
                exact ⟨rfl, c1⟩
              · by_cases h34 : ((a0[i].toNat : Nat) : Int) = 34
                · have b32 : (((a0[i].toNat : Nat) : Int) == 32) = false := beq_eq_false_iff_ne.2 h32
                  have b9 : (((a0[i].toNat : Nat) : Int) == 9) = false := beq_eq_false_iff_ne.2 h9
                  have b10 : (((a0[i].toNat : Nat) : Int) == 10) = false := beq_eq_false_iff_ne.2 h10
                  have b12 : (((a0[i].toNat : Nat) : Int) == 12) = false := beq_eq_false_iff_ne.2 h12
                  have b62 : (((a0[i].toNat : Nat) : Int) == 62) = false := beq_eq_false_iff_ne.2 h62
                  have b34 : (((a0[i].toNat : Nat) : Int) == 34) = true := beq_iff_eq.2 h34
                  clear hall h32 h9 h10 h12 h62 h34
                  go_wp2
                  go_ret
                  exact ⟨rfl, c1⟩
                · by_cases h39 : ((a0[i].toNat : Nat) : Int) = 39
                  · have b32 : (((a0[i].toNat : Nat) : Int) == 32) = false := beq_eq_false_iff_ne.2 h32
                    have b9 : (((a0[i].toNat : Nat) : Int) == 9) = false := beq_eq_false_iff_ne.2 h9
                    have b10 : (((a0[i].toNat : Nat) : Int) == 10) = false := beq_eq_false_iff_ne.2 h10
                    have b12 : (((a0[i].toNat : Nat) : Int) == 12) = false := beq_eq_false_iff_ne.2 h12
                    have b62 : (((a0[i].toNat : Nat) : Int) == 62) = false := beq_eq_false_iff_ne.2 h62
                    have b34 : (((a0[i].toNat : Nat) : Int) == 34) = false := beq_eq_false_iff_ne.2 h34
                    have b39 : (((a0[i].toNat : Nat) : Int) == 39) = true := beq_iff_eq.2 h39
                    clear hall h32 h9 h10 h12 h62 h34 h39
                    go_wp2
                    go_ret
                    exact ⟨rfl, c1⟩
                  · by_cases h38 : ((a0[i].toNat : Nat) : Int) = 38
                    · have b32 : (((a0[i].toNat : Nat) : Int) == 32) = false := beq_eq_false_iff_ne.2 h32
                      have b9 : (((a0[i].toNat : Nat) : Int) == 9) = false := beq_eq_false_iff_ne.2 h9
                      have b10 : (((a0[i].toNat : Nat) : Int) == 10) = false := beq_eq_false_iff_ne.2 h10
                      have b12 : (((a0[i].toNat : Nat) : Int) == 12) = false := beq_eq_false_iff_ne.2 h12
                      have b62 : (((a0[i].toNat : Nat) : Int) == 62) = false := beq_eq_false_iff_ne.2 h62
                      have b34 : (((a0[i].toNat : Nat) : Int) == 34) = false := beq_eq_false_iff_ne.2 h34
                      have b39 : (((a0[i].toNat : Nat) : Int) == 39) = false := beq_eq_false_iff_ne.2 h39
                      have b38 : (((a0[i].toNat : Nat) : Int) == 38) = true := beq_iff_eq.2 h38
                      clear hall h32 h9 h10 h12 h62 h34 h39 h38
                      go_wp2
                      go_ret
                      exact ⟨rfl, c1⟩
                    · by_cases h0 : ((a0[i].toNat : Nat) : Int) = 0
                      · have b32 : (((a0[i].toNat : Nat) : Int) == 32) = false := beq_eq_false_iff_ne.2 h32
                        have b9 : (((a0[i].toNat : Nat) : Int) == 9) = false := beq_eq_false_iff_ne.2 h9
                        have b10 : (((a0[i].toNat : Nat) : Int) == 10) = false := beq_eq_false_iff_ne.2 h10
                        have b12 : (((a0[i].toNat : Nat) : Int) == 12) = false := beq_eq_false_iff_ne.2 h12
                        have b62 : (((a0[i].toNat : Nat) : Int) == 62) = false := beq_eq_false_iff_ne.2 h62
                        have b34 : (((a0[i].toNat : Nat) : Int) == 34) = false := beq_eq_false_iff_ne.2 h34
                        have b39 : (((a0[i].toNat : Nat) : Int) == 39) = false := beq_eq_false_iff_ne.2 h39
                        have b38 : (((a0[i].toNat : Nat) : Int) == 38) = false := beq_eq_false_iff_ne.2 h38
                        have b0 : (((a0[i].toNat : Nat) : Int) == 0) = true := beq_iff_eq.2 h0
                        clear hall h32 h9 h10 h12 h62 h34 h39 h38 h0
                        go_wp2
                        go_ret
                        exact ⟨rfl, c1⟩
                      · have HX := Lib.hid (okV_of a0[i] h32 h9 h10 h12 h62 h34 h39 h38 h0)
                        have b32 : (((a0[i].toNat : Nat) : Int) == 32) = false := beq_eq_false_iff_ne.2 h32
                        have b9 : (((a0[i].toNat : Nat) : Int) == 9) = false := beq_eq_false_iff_ne.2 h9
                        have b10 : (((a0[i].toNat : Nat) : Int) == 10) = false := beq_eq_false_iff_ne.2 h10
                        have b12 : (((a0[i].toNat : Nat) : Int) == 12) = false := beq_eq_false_iff_ne.2 h12
                        have b62 : (((a0[i].toNat : Nat) : Int) == 62) = false := beq_eq_false_iff_ne.2 h62
                        have b34 : (((a0[i].toNat : Nat) : Int) == 34) = false := beq_eq_false_iff_ne.2 h34
                        have b39 : (((a0[i].toNat : Nat) : Int) == 39) = false := beq_eq_false_iff_ne.2 h39
                        have b38 : (((a0[i].toNat : Nat) : Int) == 38) = false := beq_eq_false_iff_ne.2 h38
                        have b0 : (((a0[i].toNat : Nat) : Int) == 0) = false := beq_eq_false_iff_ne.2 h0
                        have HA := Lib.hid (plain_next a0 i hlt hall HX.out)
                        clear hall h32 h9 h10 h12 h62 h34 h39 h38 h0
                        go_wp2
                        go_roundw
                        case rel => exact ⟨i + 1, by simp, by omega, HA.out, trivial⟩
                        case measure => simp [intOf]; omega
    · have hv : ∀ x ∈ a0.data.toList, okV x := by
        rw [List.take_of_length_le (by rw [← Lib.size_eq]; omega)] at hall
        exact hall
      have HV1 := Lib.hid (first_text a0 hp hv)
      have HV2 := Lib.hid (second_text a0 hp hv)
      have z1 : (ByteArray.mk #[117, 61]).size = 2 := rfl
      have z2 : (ByteArray.mk #[62]).size = 1 := rfl
      have z3 : (ByteArray.mk #[117, 32, 61, 32]).size = 4 := rfl
      have z4 : (ByteArray.mk #[32, 119, 62]).size = 3 := rfl
      have HR1 := fun w h => Lib.hid (attrs_any (⟨#[117, 61]⟩ ++ a0 ++ ⟨#[62]⟩) 0 w (by rw [ByteArray.size_append, ByteArray.size_append, z1, z2]; omega) (by decide) h)
      have HR2 := fun w h => Lib.hid (attrs_any (⟨#[117, 32, 61, 32]⟩ ++ a0 ++ ⟨#[32, 119, 62]⟩) 0 w (by rw [ByteArray.size_append, ByteArray.size_append, z3, z4]; omega) (by decide) h)
      clear hall hv z1 z2 z3 z4
      go_wp2_with (fail)
      refine (HR1 _ (HW.out.below c1)).out.mono ?_
      rintro e w2 ⟨ad, len, cap, l, self, n, ok, rfl, hr, hv, b2⟩
      rw [HV1.out] at hv
      simp only [Prod.mk.injEq] at hv
      obtain ⟨rfl, rfl, rfl, rfl⟩ := hv
      have c2 := c1.trans (b2.mono c1.size)
      have K1 := Lib.hid hr
      clear hr
      go_wp2_with (fail)
      refine (HR2 _ (HW.out.below c2)).out.mono ?_
      rintro e w3 ⟨ad2, len2, cap2, l2, self2, n2, ok2, rfl, hr2, hv2, b3⟩
      rw [HV2.out] at hv2
      simp only [Prod.mk.injEq] at hv2
      obtain ⟨rfl, rfl, rfl, rfl⟩ := hv2
      have c3 := c2.trans (b3.mono c2.size)
      have K2 := Lib.hid hr2
      clear hr2
      go_wp2_with (fail)
      refine (refSame_any _ _ _ _ _ _ [([117], a0.data.toList)] [([117], a0.data.toList)] _ (K1.out.below (b3.alloc b3.size _) (Nat.le_refl _)) (isRows_new w3 [([117], a0.data.toList)] 27 (show 1 ≤ 1048576 by decide))).mono ?_
      rintro e w4 ⟨rfl, d1, rfl⟩
      have c4 := (c3.alloc c3.size (.cells (cellsR [([117], a0.data.toList)]).toArray 27)).trans (dr_below _ _ d1)
      have k1 : Below w3.heap.size w3 ((w3.alloc (.cells (cellsR [([117], a0.data.toList)]).toArray 27)).drewN d1) := ((Below.refl _ w3).alloc (Nat.le_refl _) _).trans (dr_below _ _ d1)
      go_wp2_with (fail)
      refine (refSame_any _ _ _ _ _ _ [([117], a0.data.toList), ([119], [])] [([117], a0.data.toList), ([119], [])] _ (K2.out.below (k1.alloc k1.size _) (Nat.le_refl _)) (isRows_put ((w3.alloc (.cells (cellsR [([117], a0.data.toList)]).toArray 27)).drewN d1) (w3.heap.size + 1) [([117], a0.data.toList), ([119], [])] 27 (by show (w3.alloc _).heap.size = _; simp) (show 2 ≤ 1048576 by decide) _ rfl)).mono ?_
      rintro e w5 ⟨rfl, d2, rfl⟩
      go_wp2
      go_ret
      exact ⟨ret_bool (by simp), (c4.alloc c4.size _).trans (dr_below _ _ d2)⟩
  -- go_wp2
  -- go_ret
  -- exact ⟨rfl, by repeat (first | exact Grown.refl _ | apply Grown.drew | apply Grown.alloc)⟩

theorem laid_met (os : Os) : laidMet Tryd.prog Rows.attrsPlainRow.laid ((laidWorld os).forCall (fun _ _ => 0) ⟨#[], #[.string ByteArray.empty], []⟩).memory :=
  laidMet_of_run' 8 (by kernel_rfl) (by kernel_rfl)
theorem reads (os : Os) {H : Type} (enc : TypeId × Value → H) : ∃ places, DataW.whole enc Tryd.prog ((laidWorld os).forCall (fun _ _ => 0) ⟨#[], #[.string ByteArray.empty], []⟩).memory Tryd.f6.params.toList Rows.attrsPlainSpec.vars false (#[.string ByteArray.empty] : Array Value).toList 8 = some ([.lit (.string [])], [], places) :=
  ⟨[], by kernel_rfl⟩
set_option maxRecDepth 100000 in
theorem lifted (os : Os) (started : os.Started) (H : Type) (enc : TypeId × Value → H) (F : Stop.Interp) :
    ReturnsInHanded {} Tryd.checked os 6 .any ((OpenSpec.ofChange Rows.attrsPlainSpec).preRow enc Tryd.prog Tryd.f6 Rows.attrsPlainRow.domain false Rows.attrsPlainRow.laid) (((OpenSpec.ofChange Rows.attrsPlainSpec).at F).post enc Tryd.prog Tryd.f6 false true false false) := by
  obtain ⟨places, hx⟩ := reads os enc
  refine returnsInHanded_of_row (C := Tryd.checked) (s := OpenSpec.ofChange Rows.attrsPlainSpec) own started (by kernel_rfl) Tryd.func6
    (witness_row_at (enc := enc) (C := Tryd.checked) false (laidWorld os) #[.string ByteArray.empty] rfl (by kernel_rfl) (by kernel_rfl) (by kernel_rfl)
      (OpenSpec.preRow_of_cond 8 hx (by kernel_rfl) (fun k hk => by cases hk) (by kernel_rfl) (laid_met os))) ?_
  intro W base args ds gs before hval0 hW _ _ _ hL _ _
  have hval : ∀ (j : Nat) t v, Tryd.f6.params[j]? = some t → args[j]? = some v → Value.okWide Tryd.prog W .any base t v := hval0
  have hW' := hW
  obtain ⟨p, q, hA0, hV, rfl, hfz, hnd⟩ := hW
  have hA : DataW.TrodAll enc Tryd.prog W 0 (fun _ => true) true Tryd.f6.params.toList args.toList ds p := hA0
  rw [Tryd.params6] at hA hval
  obtain ⟨v0, vs0, d0, ds0, p0, q0, hargs, rfl, rfl, h0, r0⟩ := trodAll_cons hA
  obtain ⟨rfl, rfl, rfl⟩ := trodAll_nil r0
  obtain rfl : args = #[v0] := by cases args; simp_all
  obtain ⟨rfl, rfl⟩ := trodVars_none hV
  obtain ⟨a0, rfl, rfl, rfl, w0⟩ := open_string Tryd.underlying9 (hval 0 9 v0 rfl rfl) h0
  clear hA0 hval0
  refine (walk a0 w0 W (tabAt_of hL)).mono fun e W' ⟨he, bel⟩ => ?_
  subst he
  exact ⟨_, rfl, _, _, _, [], _, [], hW', trodAll_mk1 (shut_bool Tryd.underlying4 _), (trodAll_cons_mk (shut_string Tryd.underlying9 w0) trodAll_mk0), rfl, bel.frame _, fun h => by cases h⟩

theorem said : Rows.AttrsPlainSaid :=
  OpenClaim.holds_of_cond 6 Tryd.f6 rfl rfl rfl rfl rfl rfl rfl ⟨rfl, rfl, rfl, rfl, rfl⟩ rfl rfl rfl rfl rfl (by kernel_rfl) Tryd.func6 (by kernel_rfl)
    (of_decide_eq_true (by kernel_rfl)) (by unfold Func.isWrapper; first | (rw [if_pos (by decide +kernel)]; kernel_rfl) | (rw [if_neg (by decide +kernel)]; exact ⟨rfl, rfl⟩))
    (fun os started H enc _ F => by rw [OpenClaim.pre_eq_preRow]; exact lifted os started H enc F)
theorem plain (f : FuncId) (fn : Func) (hf : Tryd.pinned.checked.prog.funcNamed "flail/flaillaw08.AttrsPlain" = some f) (hfn : Tryd.pinned.checked.prog.funcs[f]? = some fn) :
    true = Tryd.pinned.checked.prog.looks [] ∧ ∀ (j : Nat) t, fn.params[j]? = some t → Tryd.pinned.checked.prog.wantsStandIn t = false := by
  obtain rfl : f = 6 := Option.some.inj ((show Tryd.prog.funcNamed "flail/flaillaw08.AttrsPlain" = some 6 by kernel_rfl).symm.trans hf) |>.symm
  obtain rfl : fn = Tryd.f6 := (Option.some.inj (Tryd.func6.symm.trans hfn)).symm
  refine ⟨by kernel_rfl, fun j t ht => ?_⟩
  rw [Tryd.params6] at ht
  have hm : t ∈ [9] := by simpa using Array.mem_of_getElem? ht
  have hall : ([9].all fun u => !Tryd.prog.wantsStandIn u) = true := by kernel_rfl
  exact (show Tryd.prog.wantsStandIn t = false by simpa using List.all_eq_true.1 hall t hm)
/-- the statement: the row's card -/
theorem proved : Rows.AttrsPlainCardSaid :=
  Claim7.holds_tied_plain_at .later [] _ _ _ _ said (fun _ h => by cases h) (by kernel_rfl) (fun _ h => by cases h) attrsPlain_row_tie rfl ⟨rfl, rfl⟩ (by kernel_rfl) rfl plain (by kernel_rfl)
end Go.Proofs.YtpdmnnfbdeiejaaDoor.attrsPlain
