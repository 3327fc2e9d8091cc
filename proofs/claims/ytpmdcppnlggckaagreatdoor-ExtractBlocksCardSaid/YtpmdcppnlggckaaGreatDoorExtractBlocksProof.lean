/-
  The law ExtractBlocks of flail/flaillaw20 answers true for every input, and changes nothing that was there. Condition, which the card ties to the program's text: when the call begins, the package variables that the row lists hold what that text lays in them (math/bits.deBruijn32tab, math/bits.deBruijn64tab, internal/strconv.uint64pow10, strconv.ErrRange, strconv.ErrSyntax, flail/number.others).
-/
import Derived.Test.YtpmdcppnlggckaaGreatDoorRows
import Derived.Test.YtpmdcppnlggckaaGreatDoorExtAwake
import Derived.Test.YtpmdcppnlggckaaGreatDoorExtMath
import Derived.Test.YtpmdcppnlggckaaGreatDoorCards
import Derived.Test.YtpmdcppnlggckaaGreatDoorP6
import Derived.WalkKit
import Derived.ProofKit
import Derived.OpenShut
import Derived.ShutString
import Derived.ChangeOld
import Derived.Below
namespace Go.Proofs.YtpmdcppnlggckaaGreatDoor.extractBlocks
open Go.ChangeShapes Go.WideShapes Go.ChangeAt Go.RowKit
open Go.ChangeMaps (open_string shut_string)
set_option linter.unusedVariables false

theorem own : ownKnob Tryz.prog.godebug = none := by kernel_rfl
theorem laidOut : laidOutB Tryz.prog = true := by kernel_rfl

/-- WHAT THE WALK IS TOLD OF A SLICE OF INTEGERS THAT CAME IN: it is nil; or it leads to a row of 'cap' cells, the numbers 'zs' (the first 'len' are its elements, the rest its spare room), each fitting its kind. -/
def IsRow (k : IntKind) (w : World) (a : Option Addr) (len cap : Nat) (zs : List Int) : Prop :=
  (a = none ∧ len = 0 ∧ cap = 0 ∧ zs = []) ∨
  ∃ x, a = some x ∧ len ≤ cap ∧ cap ≤ maxLen ∧ zs.length = cap ∧ (∀ i, i < zs.length → w.cell? (x.add i) = some (.int k (zs.getD i 0))) ∧ ∀ n ∈ zs, (Lit.int k n).wf = true

/-- small letters, told by small numbers -/
def smB (c : UInt8) : UInt8 := UInt8.ofNat (97 + c.toNat % 26)
theorem smB_nat (c : UInt8) : (smB c).toNat = 97 + c.toNat % 26 := by
  unfold smB
  rw [UInt8.toNat_ofNat']
  omega
theorem sm_small (l : Txt) (h : l ≠ []) : SmallT (l.map smB) := by
  refine ⟨fun e => h (List.map_eq_nil_iff.1 e), fun c hc => ?_⟩
  obtain ⟨d, -, rfl⟩ := List.mem_map.1 hc
  rw [smB_nat]; omega
theorem sm_take (l : Txt) (i : Nat) (h : i < l.length) : (l.take (i + 1)).map smB = (l.take i).map smB ++ [smB l[i]] := by
  rw [List.take_succ_eq_append_getElem h, List.map_append]; rfl
theorem str_of {A : ByteArray} {l : Txt} (h : l = A.data.toList) : (⟨l.toArray⟩ : ByteArray) = A := by rw [h]
set_option maxRecDepth 100000 in
set_option maxHeartbeats 8000000 in
theorem walk (a0 : Option Addr) (len0 cap0 : Nat) (z0 : List Int) (a1 : Option Addr) (len1 cap1 : Nat) (z1 : List Int) (w : World) (hT : LaidAt w) (w0 : IsRow .u8 w a0 len0 cap0 z0) (w1 : IsRow .u8 w a1 len1 cap1 z1) :
    Calls Tryz.prog 7 #[.slice a0 len0 cap0, .slice a1 len1 cap1] w fun e w' => e = .returned (.bool true) ∧ Below w.heap.size w w' := by
  obtain ⟨l0, hl0, hb0⟩ := isBytes_row w0
  obtain ⟨l1, hl1, hb1⟩ := isBytes_row w1
  clear w0 w1
  have HW := Lib.hid hT
  clear hT
  have HB0 := Lib.hid hb0
  have HB1 := Lib.hid hb1
  have HN0 := Lib.hid hl0
  have HN1 := Lib.hid hl1
  clear hb0 hb1 hl0 hl1
  by_cases hlen : 100 < len0 ∨ 100 < len1 ∨ len0 = 0 ∨ len1 = 0
  · have hc : decide ((100 : Int) < (len0 : Int)) = true ∨ decide ((100 : Int) < (len0 : Int)) = false ∧ decide ((100 : Int) < (len1 : Int)) = true ∨ decide ((100 : Int) < (len0 : Int)) = false ∧ decide ((100 : Int) < (len1 : Int)) = false ∧ ((len0 : Int) == 0) = true ∨
        decide ((100 : Int) < (len0 : Int)) = false ∧ decide ((100 : Int) < (len1 : Int)) = false ∧ ((len0 : Int) == 0) = false ∧ ((len1 : Int) == 0) = true := by
      simp only [decide_eq_true_eq, decide_eq_false_iff_not, beq_iff_eq, beq_eq_false_iff_ne]; omega
    clear hlen
    rcases hc with hc | ⟨hc, hd⟩ | ⟨hc, hd, he⟩ | ⟨hc, hd, he, hf⟩
    all_goals
      go_enter Tryz.func7, Tryz.ntmps7
      go_wp2_with (fail)
      refine (extAwake_any w HW.out).mono ?_
      rintro e w1 ⟨rfl, c1⟩
      go_wp2
      go_ret
      exact ⟨rfl, c1⟩
  have hs0 : len0 ≤ 100 := by omega
  have hs1 : len1 ≤ 100 := by omega
  have d0 : decide ((100 : Int) < (len0 : Int)) = false := decide_eq_false (by omega)
  have d1 : decide ((100 : Int) < (len1 : Int)) = false := decide_eq_false (by omega)
  have d2 : ((len0 : Int) == 0) = false := beq_eq_false_iff_ne.2 (by omega)
  have d3 : ((len1 : Int) == 0) = false := beq_eq_false_iff_ne.2 (by omega)
  have hp0 : 0 < len0 := by omega
  have hp1 : 0 < len1 := by omega
  clear hlen
  obtain ⟨x0, rfl, -⟩ := HB0.out.cell hp0
  obtain ⟨x1, rfl, -⟩ := HB1.out.cell hp1
  have hC0 : Hid (∀ w', Below w.heap.size w w' → ∀ i (hi : i < l0.length), w'.cell? (x0.add i) = some (.int .u8 (l0[i].toNat : Int))) := Lib.hid fun w' h i hi => by
    have hn := HN0.out
    rw [(HB0.out.kept h).cellAt i (by omega), List.getD_eq_getElem?_getD, List.getElem?_eq_getElem hi]; rfl
  have hC1 : Hid (∀ w', Below w.heap.size w w' → ∀ i (hi : i < l1.length), w'.cell? (x1.add i) = some (.int .u8 (l1[i].toNat : Int))) := Lib.hid fun w' h i hi => by
    have hn := HN1.out
    rw [(HB1.out.kept h).cellAt i (by omega), List.getD_eq_getElem?_getD, List.getElem?_eq_getElem hi]; rfl
  have HS0 := Lib.hid (sm_small l0 (fun e => by have := HN0.out; rw [e] at this; simp at this; omega))
  have HS1 := Lib.hid (sm_small l1 (fun e => by have := HN1.out; rw [e] at this; simp at this; omega))
  go_enter Tryz.func7, Tryz.ntmps7
  go_wp2_with (fail)
  refine (extAwake_any w HW.out).mono ?_
  rintro e w1 ⟨rfl, c1⟩
  have B1 := Lib.hid c1
  clear c1
  go_wp2
  clear d0 d1 d2 d3
  go_loopw [6, 8] (fun v6 v8 wr => ∃ (i : Nat) (X : ByteArray), v8 = .int .i64 (i : Int) ∧ v6 = .string X ∧ i ≤ len0 ∧ X.size = i ∧ Below w.heap.size w wr ∧ Hid (X.data.toList = (l0.take i).map smB)) (fun _ v _ => len0 - (intOf v).toNat)
  case atStart => exact ⟨0, ⟨#[]⟩, rfl, rfl, Nat.zero_le _, rfl, B1.out, Lib.hid rfl⟩
  case round =>
    obtain ⟨i, X, rfl, rfl, hi, hX, hbw, HX⟩ := hrel
    have HBW := Lib.hid hbw
    have HXS := Lib.hid hX
    by_cases hlt : i < len0
    · have hil : i < l0.length := by rw [HN0.out]; exact hlt
      have hc := hC0.out _ HBW.out i hil
      have HT := Lib.hid (sm_take l0 i hil)
      obtain ⟨c, hcc⟩ : ∃ c, l0[i] = c := ⟨_, rfl⟩
      rw [hcc] at hc HT
      obtain ⟨q, hq⟩ : ∃ q : Int, ((c.toNat : Nat) : Int) = q := ⟨_, rfl⟩
      have q0 : 0 ≤ q := by omega
      have q1 : q < 256 := by have := c.toNat_lt; omega
      have i0 : 0 ≤ q % 26 := Int.emod_nonneg _ (by decide)
      have i1 : q % 26 < 26 := Int.emod_lt_of_pos _ (by decide)
      have H97 : Hid (((smB c).toNat : Int) = 97 + q % 26) := Lib.hid (by rw [smB_nat, ← hq]; omega)
      rw [hq] at hc
      have HX2 : Hid ((X ++ ⟨#[smB c]⟩ : ByteArray).data.toList = (l0.take (i + 1)).map smB) := Lib.hid (by rw [HT.out, ← HX.out]; simp [ByteArray.data_append])
      have Z1 : Hid ((X ++ ⟨#[smB c]⟩ : ByteArray).size = i + 1) := Lib.hid (by rw [ByteArray.size_append, HXS.out]; rfl)
      have g2 : ¬ 9223372036854775807 < X.size + (ByteArray.mk #[smB c]).size := by rw [show (ByteArray.mk #[smB c]).size = 1 from rfl]; omega
      clear hcc hq hX hbw
      go_wp2
      rw [oneByte _ _ _ H97.out]
      simp only [Result.andThen]
      rw [Oper.upon_value]
      go_wp2
      go_roundw
      case rel => exact ⟨i + 1, _, by go_num, rfl, by omega, Z1.out, HBW.out.alloc HBW.out.size _, HX2⟩
      case measure => simp [intOf]; omega
    · obtain rfl : i = len0 := by omega
      have HXL : Hid (SmallT X.data.toList) := Lib.hid (by rw [HX.out, List.take_of_length_le (by rw [HN0.out]; exact Nat.le_refl _)]; exact HS0.out)
      have hX0 : X.size ≤ 100 := by omega
      clear hX hbw
      go_wp2
      go_loopw [7, 9] (fun v7 v9 wr2 => ∃ (j : Nat) (Y : ByteArray), v9 = .int .i64 (j : Int) ∧ v7 = .string Y ∧ j ≤ len1 ∧ Y.size = j ∧ Below w.heap.size w wr2 ∧ Hid (Y.data.toList = (l1.take j).map smB)) (fun _ v _ => len1 - (intOf v).toNat)
      case atStart => exact ⟨0, ⟨#[]⟩, rfl, rfl, Nat.zero_le _, rfl, HBW.out, Lib.hid rfl⟩
      case round =>
        obtain ⟨j, Y, rfl, rfl, hj, hY, hbw2, HY⟩ := hrel
        have HBW2 := Lib.hid hbw2
        have HYS := Lib.hid hY
        by_cases hlt2 : j < len1
        · have hil : j < l1.length := by rw [HN1.out]; exact hlt2
          have hc := hC1.out _ HBW2.out j hil
          have HT := Lib.hid (sm_take l1 j hil)
          obtain ⟨c, hcc⟩ : ∃ c, l1[j] = c := ⟨_, rfl⟩
          rw [hcc] at hc HT
          obtain ⟨q, hq⟩ : ∃ q : Int, ((c.toNat : Nat) : Int) = q := ⟨_, rfl⟩
          have q0 : 0 ≤ q := by omega
          have q1 : q < 256 := by have := c.toNat_lt; omega
          have i0 : 0 ≤ q % 26 := Int.emod_nonneg _ (by decide)
          have i1 : q % 26 < 26 := Int.emod_lt_of_pos _ (by decide)
          have H97 : Hid (((smB c).toNat : Int) = 97 + q % 26) := Lib.hid (by rw [smB_nat, ← hq]; omega)
          rw [hq] at hc
          have HX2 : Hid ((Y ++ ⟨#[smB c]⟩ : ByteArray).data.toList = (l1.take (j + 1)).map smB) := Lib.hid (by rw [HT.out, ← HY.out]; simp [ByteArray.data_append])
          have Z1 : Hid ((Y ++ ⟨#[smB c]⟩ : ByteArray).size = j + 1) := Lib.hid (by rw [ByteArray.size_append, HYS.out]; rfl)
          have g2 : ¬ 9223372036854775807 < Y.size + (ByteArray.mk #[smB c]).size := by rw [show (ByteArray.mk #[smB c]).size = 1 from rfl]; omega
          clear hcc hq hY hbw2
          go_wp2
          rw [oneByte _ _ _ H97.out]
          simp only [Result.andThen]
          rw [Oper.upon_value]
          go_wp2
          go_roundw
          case rel => exact ⟨j + 1, _, by go_num, rfl, by omega, Z1.out, HBW2.out.alloc HBW2.out.size _, HX2⟩
          case measure => simp [intOf]; omega
        · obtain rfl : j = len1 := by omega
          have HYL : Hid (SmallT Y.data.toList) := Lib.hid (by rw [HY.out, List.take_of_length_le (by rw [HN1.out]; exact Nat.le_refl _)]; exact HS1.out)
          have hY0 : Y.size ≤ 100 := by omega
          clear hY hbw2
          have k0 : (⟨#[60, 98, 62]⟩ : ByteArray).size = 3 := rfl
          have k1 : (⟨#[60, 112, 62]⟩ : ByteArray).size = 3 := rfl
          have k2 : (⟨#[60, 47, 98, 62]⟩ : ByteArray).size = 4 := rfl
          have k3 : (⟨#[60, 47, 112, 62]⟩ : ByteArray).size = 4 := rfl
          have k4 : (⟨#[60, 100, 105, 118, 62]⟩ : ByteArray).size = 5 := rfl
          have k5 : (⟨#[60, 98, 114, 62, 60, 98, 114, 47, 62]⟩ : ByteArray).size = 9 := rfl
          have k6 : (⟨#[60, 47, 100, 105, 118, 62, 10, 60, 100, 105, 118, 62]⟩ : ByteArray).size = 12 := rfl
          have v0 : (⟨(extL (⟨#[60, 112, 62]⟩ ++ X ++ ⟨#[60, 112, 62]⟩ ++ Y ++ ⟨#[60, 47, 112, 62]⟩ : ByteArray).data.toList).toArray⟩ : ByteArray) = X ++ ⟨#[10, 10]⟩ ++ Y := by
            refine str_of ?_
            have := blocks_p X.data.toList Y.data.toList HXL.out HYL.out
            simp only [ByteArray.data_append, Array.toList_append, List.append_assoc] at this ⊢
            exact this
          have z0 : (⟨#[60, 112, 62]⟩ ++ X ++ ⟨#[60, 112, 62]⟩ ++ Y ++ ⟨#[60, 47, 112, 62]⟩ : ByteArray).size = 3 + X.size + 3 + Y.size + 4 := by simp only [ByteArray.size_append, k1, k3]
          have E0 := fun fr w h => Lib.hid (ext_str _ _ fr w z0 (ext_ok _ (by rw [← Lib.size_eq, z0]; omega)) h)
          rw [v0] at E0
          have v1 : (⟨(extL (⟨#[60, 100, 105, 118, 62]⟩ ++ X ++ ⟨#[60, 47, 100, 105, 118, 62, 10, 60, 100, 105, 118, 62]⟩ ++ Y : ByteArray).data.toList).toArray⟩ : ByteArray) = X ++ ⟨#[10]⟩ ++ Y := by
            refine str_of ?_
            have := blocks_d X.data.toList Y.data.toList HXL.out HYL.out
            simp only [ByteArray.data_append, Array.toList_append, List.append_assoc] at this ⊢
            exact this
          have z1 : (⟨#[60, 100, 105, 118, 62]⟩ ++ X ++ ⟨#[60, 47, 100, 105, 118, 62, 10, 60, 100, 105, 118, 62]⟩ ++ Y : ByteArray).size = 5 + X.size + 12 + Y.size := by simp only [ByteArray.size_append, k4, k6]
          have E1 := fun fr w h => Lib.hid (ext_str _ _ fr w z1 (ext_ok _ (by rw [← Lib.size_eq, z1]; omega)) h)
          rw [v1] at E1
          have v2 : (⟨(extL (⟨#[60, 98, 62]⟩ ++ X ++ ⟨#[60, 47, 98, 62]⟩ ++ Y : ByteArray).data.toList).toArray⟩ : ByteArray) = X ++ Y := by
            refine str_of ?_
            have := blocks_i X.data.toList Y.data.toList HXL.out HYL.out
            simp only [ByteArray.data_append, Array.toList_append, List.append_assoc] at this ⊢
            exact this
          have z2 : (⟨#[60, 98, 62]⟩ ++ X ++ ⟨#[60, 47, 98, 62]⟩ ++ Y : ByteArray).size = 3 + X.size + 4 + Y.size := by simp only [ByteArray.size_append, k0, k2]
          have E2 := fun fr w h => Lib.hid (ext_str _ _ fr w z2 (ext_ok _ (by rw [← Lib.size_eq, z2]; omega)) h)
          rw [v2] at E2
          have v3 : (⟨(extL (X ++ ⟨#[60, 98, 114, 62, 60, 98, 114, 47, 62]⟩ ++ Y : ByteArray).data.toList).toArray⟩ : ByteArray) = X ++ ⟨#[10, 10]⟩ ++ Y := by
            refine str_of ?_
            have := blocks_r X.data.toList Y.data.toList HXL.out HYL.out
            simp only [ByteArray.data_append, Array.toList_append, List.append_assoc] at this ⊢
            exact this
          have z3 : (X ++ ⟨#[60, 98, 114, 62, 60, 98, 114, 47, 62]⟩ ++ Y : ByteArray).size = X.size + 9 + Y.size := by simp only [ByteArray.size_append, k5]
          have E3 := fun fr w h => Lib.hid (ext_str _ _ fr w z3 (ext_ok _ (by rw [← Lib.size_eq, z3]; omega)) h)
          rw [v3] at E3
          have m0 : ¬ 9223372036854775807 < 3 + X.size := by omega
          have m1 : ¬ 9223372036854775807 < 3 + X.size + 3 := by omega
          have m2 : ¬ 9223372036854775807 < 3 + X.size + 3 + Y.size := by omega
          have m3 : ¬ 9223372036854775807 < 3 + X.size + 3 + Y.size + 4 := by omega
          have m4 : ¬ 9223372036854775807 < X.size + 2 := by omega
          have m5 : ¬ 9223372036854775807 < X.size + 2 + Y.size := by omega
          have m6 : ¬ 9223372036854775807 < 5 + X.size := by omega
          have m7 : ¬ 9223372036854775807 < 5 + X.size + 12 := by omega
          have m8 : ¬ 9223372036854775807 < 5 + X.size + 12 + Y.size := by omega
          have m9 : ¬ 9223372036854775807 < X.size + 1 := by omega
          have m10 : ¬ 9223372036854775807 < X.size + 1 + Y.size := by omega
          have m11 : ¬ 9223372036854775807 < 3 + X.size + 4 := by omega
          have m12 : ¬ 9223372036854775807 < 3 + X.size + 4 + Y.size := by omega
          have m13 : ¬ 9223372036854775807 < X.size + Y.size := by omega
          have m14 : ¬ 9223372036854775807 < X.size + 9 := by omega
          have m15 : ¬ 9223372036854775807 < X.size + 9 + Y.size := by omega
          clear v0 z0 v1 z1 v2 z2 v3 z3 k0 k1 k2 k3 k4 k5 k6
          have kc := fun (wx : World) (s : ByteArray) => run_bytes_of_string (P := Tryz.prog) wx 9 22 5 s Tryz.underlying9 Tryz.underlying22 Tryz.underlying5
          go_wp2_with (fail)
          refine (E0 _ _ (HW.out.below HBW2.out)).out.mono ?_
          rintro e y0 ⟨rfl, c0⟩
          have C0 := Lib.hid (HBW2.out.trans (c0.mono HBW2.out.size))
          clear c0
          go_wp2_with (fail)
          refine (E1 _ _ (HW.out.below C0.out)).out.mono ?_
          rintro e y1 ⟨rfl, c1⟩
          have C1 := Lib.hid (C0.out.trans (c1.mono C0.out.size))
          clear c1
          go_wp2_with (fail)
          refine (E2 _ _ (HW.out.below C1.out)).out.mono ?_
          rintro e y2 ⟨rfl, c2⟩
          have C2 := Lib.hid (C1.out.trans (c2.mono C1.out.size))
          clear c2
          go_wp2_with (fail)
          refine (E3 _ _ (HW.out.below C2.out)).out.mono ?_
          rintro e y3 ⟨rfl, c3⟩
          have C3 := Lib.hid (C2.out.trans (c3.mono C2.out.size))
          clear c3
          go_wp2
          go_ret
          exact ⟨ret_bool (by simp), C3.out⟩

theorem laid_met (os : Os) : laidMet Tryz.prog Rows.extractBlocksRow.laid ((laidWorld os).forCall (fun _ _ => 0) ⟨#[], #[.slice none 0 0, .slice none 0 0], []⟩).memory :=
  laidMet_of_run' 8 (by kernel_rfl) (by kernel_rfl)
theorem reads (os : Os) {H : Type} (enc : TypeId × Value → H) : ∃ places, DataW.whole enc Tryz.prog ((laidWorld os).forCall (fun _ _ => 0) ⟨#[], #[.slice none 0 0, .slice none 0 0], []⟩).memory Tryz.f7.params.toList Rows.extractBlocksSpec.vars false (#[.slice none 0 0, .slice none 0 0] : Array Value).toList 8 = some ([.nil, .nil], [], places) :=
  ⟨[], by kernel_rfl⟩
set_option maxRecDepth 100000 in
theorem lifted (os : Os) (started : os.Started) (H : Type) (enc : TypeId × Value → H) (F : Stop.Interp) :
    ReturnsInHanded {} Tryz.checked os 7 .any ((OpenSpec.ofChange Rows.extractBlocksSpec).preRow enc Tryz.prog Tryz.f7 Rows.extractBlocksRow.domain false Rows.extractBlocksRow.laid) (((OpenSpec.ofChange Rows.extractBlocksSpec).at F).post enc Tryz.prog Tryz.f7 false true false false) := by
  obtain ⟨places, hx⟩ := reads os enc
  refine returnsInHanded_of_row (C := Tryz.checked) (s := OpenSpec.ofChange Rows.extractBlocksSpec) own started (by kernel_rfl) Tryz.func7
    (witness_row_at (enc := enc) (C := Tryz.checked) false (laidWorld os) #[.slice none 0 0, .slice none 0 0] rfl (by kernel_rfl) (by kernel_rfl) (by kernel_rfl)
      (OpenSpec.preRow_of_cond 8 hx (by kernel_rfl) (fun k hk => by cases hk) (by kernel_rfl) (laid_met os))) ?_
  intro W base args ds gs before hval0 hW _ _ _ hL hsh _
  have hval : ∀ (j : Nat) t v, Tryz.f7.params[j]? = some t → args[j]? = some v → Value.okWide Tryz.prog W .any base t v := hval0
  have hW' := hW
  obtain ⟨p, q, hA0, hV, rfl, hfz, hnd⟩ := hW
  have hA : DataW.TrodAll enc Tryz.prog W 0 (fun _ => true) true Tryz.f7.params.toList args.toList ds p := hA0
  rw [Tryz.params7] at hA hval
  obtain ⟨v0, vs0, d0, ds0, p0, q0, hargs, rfl, rfl, h0, r0⟩ := trodAll_cons hA
  obtain ⟨v1, vs1, d1, ds1, p1, q1, rfl, rfl, rfl, h1, r1⟩ := trodAll_cons r0
  obtain ⟨rfl, rfl, rfl⟩ := trodAll_nil r1
  obtain rfl : args = #[v0, v1] := by cases args; simp_all
  obtain ⟨rfl, rfl⟩ := trodVars_none hV
  obtain ⟨a0, len0, cap0, rfl⟩ := okWide_slice Tryz.underlying22 (hval 0 22 v0 rfl rfl)
  have k0 := h0
  have lt0 : ∀ x ∈ p0, x.block < W.heap.size := by obtain ⟨m, hm⟩ := k0; exact DataW.trod_lt m _ _ _ hm
  obtain ⟨z0, w0⟩ : ∃ zs, IsRow .u8 W a0 len0 cap0 zs := by
    obtain ⟨fuel, hf⟩ := h0
    rcases open_ints Tryz.underlying22 Tryz.underlying5 (by kernel_rfl) hf with ⟨hcs, _⟩ | ⟨x, l, c, zs, hcs, _, hl, hm, hz, _, hcell, hwz⟩
    · simp [Value.cells] at hcs
      obtain ⟨rfl, rfl, rfl⟩ := hcs
      exact ⟨[], .inl ⟨rfl, rfl, rfl, rfl⟩⟩
    · simp [Value.cells] at hcs
      obtain ⟨rfl, rfl, rfl⟩ := hcs
      exact ⟨zs, .inr ⟨_, rfl, hl, hm, by simpa using hz, hcell, hwz⟩⟩
  obtain ⟨a1, len1, cap1, rfl⟩ := okWide_slice Tryz.underlying22 (hval 1 22 v1 rfl rfl)
  have k1 := h1
  have lt1 : ∀ x ∈ p1, x.block < W.heap.size := by obtain ⟨m, hm⟩ := k1; exact DataW.trod_lt m _ _ _ hm
  obtain ⟨z1, w1⟩ : ∃ zs, IsRow .u8 W a1 len1 cap1 zs := by
    obtain ⟨fuel, hf⟩ := h1
    rcases open_ints Tryz.underlying22 Tryz.underlying5 (by kernel_rfl) hf with ⟨hcs, _⟩ | ⟨x, l, c, zs, hcs, _, hl, hm, hz, _, hcell, hwz⟩
    · simp [Value.cells] at hcs
      obtain ⟨rfl, rfl, rfl⟩ := hcs
      exact ⟨[], .inl ⟨rfl, rfl, rfl, rfl⟩⟩
    · simp [Value.cells] at hcs
      obtain ⟨rfl, rfl, rfl⟩ := hcs
      exact ⟨zs, .inr ⟨_, rfl, hl, hm, by simpa using hz, hcell, hwz⟩⟩
  clear hA0 hval0
  refine (walk a0 len0 cap0 z0 a1 len1 cap1 z1 W (tabAt_of hL hsh) w0 w1).mono fun e W' ⟨he, bel⟩ => ?_
  subst he
  exact ⟨_, rfl, _, _, _, [], _, [], hW', trodAll_mk1 (shut_bool Tryz.underlying4 _), (trodAll_cons_mk (Below.trod laidOut (by kernel_rfl) (of_decide_eq_true (by kernel_rfl)) k0 bel lt0) (trodAll_cons_mk (Below.trod laidOut (by kernel_rfl) (of_decide_eq_true (by kernel_rfl)) k1 bel lt1) trodAll_mk0)), rfl, bel.frame _, fun h => by cases h⟩

theorem said : Rows.ExtractBlocksSaid :=
  OpenClaim.holds_of_cond 7 Tryz.f7 rfl rfl rfl rfl rfl rfl rfl ⟨rfl, rfl, rfl, rfl, rfl⟩ rfl rfl rfl rfl rfl (by kernel_rfl) Tryz.func7 (by kernel_rfl)
    (of_decide_eq_true (by kernel_rfl)) (by unfold Func.isWrapper; first | (rw [if_pos (by decide +kernel)]; kernel_rfl) | (rw [if_neg (by decide +kernel)]; exact ⟨rfl, rfl⟩))
    (fun os started H enc _ F => by rw [OpenClaim.pre_eq_preRow]; exact lifted os started H enc F)
theorem plain (f : FuncId) (fn : Func) (hf : Tryz.pinned.checked.prog.funcNamed "flail/flaillaw20.ExtractBlocks" = some f) (hfn : Tryz.pinned.checked.prog.funcs[f]? = some fn) :
    true = Tryz.pinned.checked.prog.looks [] ∧ ∀ (j : Nat) t, fn.params[j]? = some t → Tryz.pinned.checked.prog.wantsStandIn t = false := by
  obtain rfl : f = 7 := Option.some.inj ((show Tryz.prog.funcNamed "flail/flaillaw20.ExtractBlocks" = some 7 by kernel_rfl).symm.trans hf) |>.symm
  obtain rfl : fn = Tryz.f7 := (Option.some.inj (Tryz.func7.symm.trans hfn)).symm
  refine ⟨by kernel_rfl, fun j t ht => ?_⟩
  rw [Tryz.params7] at ht
  have hm : t ∈ [22] := by first | simpa using Array.mem_of_getElem? ht | (have h := Array.mem_of_getElem? ht; simp at h ⊢; grind)
  have hall : ([22].all fun u => !Tryz.prog.wantsStandIn u) = true := by kernel_rfl
  exact (show Tryz.prog.wantsStandIn t = false by simpa using List.all_eq_true.1 hall t hm)
/-- the statement: the row's card -/
theorem proved : Rows.ExtractBlocksCardSaid :=
  Claim7.holds_tied_plain_at .later [] _ _ _ _ said (fun _ h => by cases h) (by kernel_rfl) (fun _ h => by cases h) extractBlocks_row_tie rfl ⟨rfl, rfl⟩ (by kernel_rfl) rfl plain (by kernel_rfl)
end Go.Proofs.YtpmdcppnlggckaaGreatDoor.extractBlocks
