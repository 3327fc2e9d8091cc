/-
  The law TextPlain of flail/flaillaw14 answers true for every input, and changes nothing that was there. Condition, which the card ties to the program's text: when the call begins, the package variables that the row lists hold what that text lays in them (math/bits.deBruijn32tab, math/bits.deBruijn64tab, internal/strconv.uint64pow10, strconv.ErrRange, strconv.ErrSyntax, flail/number.others).
-/
import Derived.Test.YtcamkphanakkdaaDoorRows
import Derived.Test.YtcamkphanakkdaaDoorTxtAwake
import Derived.Test.YtcamkphanakkdaaDoorP1
import Derived.Test.YtcamkphanakkdaaDoorCards
import Derived.Test.YtcamkphanakkdaaDoorP6
import Derived.SizedLaws
import Derived.WalkKit
import Derived.ProofKit
import Derived.ChangeOld
import Derived.Below
import Derived.OpenShut
import Derived.ShutString
namespace Go.Proofs.YtcamkphanakkdaaDoor.textPlain
open Go.ChangeShapes Go.WideShapes Go.ChangeAt Go.RowKit
open Go.ChangeMaps (open_string shut_string)
set_option linter.unusedVariables false      -- a walk need not use every 'w<i>' (that an integer argument fits its kind)

theorem own : ownKnob Tryd.prog.godebug = none := by kernel_rfl

theorem opt_at (s : ByteArray) (i : Nat) (h : i < s.size) : s.data.toList[i]? = some s[i] := by
  rw [List.getElem?_eq_getElem (by rw [← Lib.size_eq]; exact h)]; rfl
/-- the kinds of a byte behind a bracket, as the walk asks them -/
theorem byte_ways (C : UInt8) (q : Int) (hq : (C.toNat : Int) = q) :
    (letB C = true ∧ 97 ≤ q ∧ q ≤ 122) ∨ (letB C = true ∧ q < 97 ∧ 65 ≤ q ∧ q ≤ 90) ∨ (C = 33 ∧ q = 33) ∨ (C = 63 ∧ q = 63) ∨ (C = 47 ∧ q = 47) ∨
    (letB C = false ∧ C ≠ 33 ∧ C ≠ 63 ∧ C ≠ 47 ∧ q ≠ 33 ∧ q ≠ 63 ∧ q ≠ 47 ∧ (q < 97 ∧ q < 65 ∨ q < 97 ∧ 65 ≤ q ∧ 90 < q ∨ 97 ≤ q ∧ 122 < q ∧ 65 ≤ q ∧ 90 < q)) := by
  unfold letB letterI
  rw [hq]
  have key : ∀ d : UInt8, C = d ↔ q = (d.toNat : Int) := fun d => by
    rw [← UInt8.toNat_inj]; omega
  rw [key 33, key 63, key 47, ne_eq, key 33, ne_eq, key 63, ne_eq, key 47, show ((33 : UInt8).toNat : Int) = 33 from rfl, show ((63 : UInt8).toNat : Int) = 63 from rfl, show ((47 : UInt8).toNat : Int) = 47 from rfl]
  simp only [decide_eq_true_eq, decide_eq_false_iff_not]
  omega
theorem list_of (a b : ByteArray) (C : UInt8) : (a ++ ⟨#[60]⟩ ++ ⟨#[C]⟩ ++ b).data.toList = a.data.toList ++ 60 :: C :: b.data.toList := by
  simp [ByteArray.data_append]
theorem next_yes (a b : ByteArray) (C : UInt8) (h : 60 ∉ a.data.toList) (hm : mkB (60 :: C :: b.data.toList) = true) : nextV (a ++ ⟨#[60]⟩ ++ ⟨#[C]⟩ ++ b).data.toList 0 = a.size := by
  rw [list_of, (txt_ahead _ _ h (next_here _ hm)).2, ← Lib.size_eq]
theorem next_not (a b : ByteArray) (C : UInt8) (h : 60 ∉ a.data.toList) (hb : 60 ∉ b.data.toList) (hC : C ≠ 60) (hm : mkB (60 :: C :: b.data.toList) = false) : nextV (a ++ ⟨#[60]⟩ ++ ⟨#[C]⟩ ++ b).data.toList 0 = a.size + (2 + b.size) := by
  have h1 : nextN (C :: b.data.toList) = (C :: b.data.toList).length := next_all _ (by
    rw [List.mem_cons, not_or]; exact ⟨fun e => hC e.symm, hb⟩)
  have h2 : nextN (60 :: C :: b.data.toList) = 2 + b.size := by
    rw [nextN, hm, if_neg Bool.false_ne_true, h1, List.length_cons, ← Lib.size_eq]; omega
  have h3 := next_skip a.data.toList (60 :: C :: b.data.toList) h
  have h0 : atN (a.data.toList ++ 60 :: C :: b.data.toList) 0 = 0 := by unfold atN; omega
  rw [list_of]
  unfold nextV
  rw [h0, List.drop_zero, h3, h2, ← Lib.size_eq, Nat.zero_add]
set_option maxRecDepth 100000 in
set_option maxHeartbeats 8000000 in
theorem walk (a0 : ByteArray) (a1 : ByteArray) (a2 : Int) (w0 : a0.size ≤ maxLen) (w1 : a1.size ≤ maxLen) (w2 : (Lit.int .u8 a2).wf = true) (w : World) (hT : LaidAt w) (z0 : a0.size ≤ 140737488351232) (z1 : a1.size ≤ 140737488351232) :
    Calls Tryd.prog 3 #[.string a0, .string a1, .int .u8 a2] w fun e w' => e = .returned (.bool true) ∧ Below w.heap.size w w' := by
  have hb2 : 0 ≤ a2 ∧ a2 ≤ 255 := by simpa [Lit.wf, IntKind.min, IntKind.max, IntKind.signed, IntKind.bits] using w2
  obtain ⟨h20, h21⟩ := hb2
  have hm0 : ¬ 9223372036854775807 < a0.size + a1.size := by omega
  clear w0 w1 w2
  clear z0 z1
  have HW := Lib.hid hT
  clear hT
  by_cases hlen : 300 < a0.size ∨ 300 < a1.size ∨ a2 = 60
  · have hc : decide ((300 : Int) < (a0.size : Int)) = true ∨ decide ((300 : Int) < (a0.size : Int)) = false ∧ decide ((300 : Int) < (a1.size : Int)) = true ∨ decide ((300 : Int) < (a0.size : Int)) = false ∧ decide ((300 : Int) < (a1.size : Int)) = false ∧ (a2 == 60) = true := by
      simp only [decide_eq_true_eq, decide_eq_false_iff_not, beq_iff_eq]; omega
    clear hlen
    rcases hc with hc | ⟨hc, hd⟩ | ⟨hc, hd, he⟩
    all_goals
      go_enter Tryd.func3, Tryd.ntmps3
      go_wp2_with (fail)
      refine (txtAwake_any w HW.out).mono ?_
      rintro e w1 ⟨rfl, c1⟩
      go_wp2
      go_ret
      exact ⟨rfl, c1⟩
  have hs0 : a0.size ≤ 300 := by omega
  have hs1 : a1.size ≤ 300 := by omega
  have d0 : decide ((300 : Int) < (a0.size : Int)) = false := decide_eq_false (by omega)
  have d1 : decide ((300 : Int) < (a1.size : Int)) = false := decide_eq_false (by omega)
  have d2 : (a2 == 60) = false := by rw [beq_eq_false_iff_ne]; omega
  obtain ⟨X, hX⟩ : ∃ X, a0 ++ a1 = X := ⟨_, rfl⟩
  have hXs : X.size = a0.size + a1.size := by rw [← hX, ByteArray.size_append]
  have hX6 : X.size ≤ 600 := by omega
  have HX := Lib.hid hX
  obtain ⟨C, hC⟩ : ∃ C : UInt8, (C.toNat : Int) = a2 := ⟨UInt8.ofNat a2.toNat, by rw [UInt8.toNat_ofNat']; omega⟩
  have HC := Lib.hid hC
  have HXS := Lib.hid hXs
  clear hlen hX hC hXs
  go_enter Tryd.func3, Tryd.ntmps3
  go_wp2_with (fail)
  refine (txtAwake_any w HW.out).mono ?_
  rintro e w1 ⟨rfl, c1⟩
  have B1 := Lib.hid c1
  go_wp2
  rw [HX.out]
  clear d0 d1 hm0
  go_loopw [9] (fun v wr => ∃ i : Nat, v = .int .i64 (i : Int) ∧ w1 = wr ∧ i ≤ X.size ∧ Hid (∀ j, j < i → X.data.toList[j]? ≠ some 60)) (fun v _ => X.size - (intOf v).toNat)
  case atStart => exact ⟨0, rfl, rfl, Nat.zero_le _, Lib.hid fun j h => absurd h (by omega)⟩
  case round =>
    obtain ⟨i, rfl, rfl, hi, HI⟩ := hrel
    by_cases hlt : i < X.size
    · have ho := opt_at X i hlt
      have HO := Lib.hid ho
      clear ho
      by_cases c60 : X[i] = 60
      · have b60 : (((X[i].toNat : Nat) : Int) == 60) = true := by rw [c60]; rfl
        clear c60
        go_wp2
        go_ret
        exact ⟨rfl, c1⟩
      have b60 : (((X[i].toNat : Nat) : Int) == 60) = false := by
        rw [beq_eq_false_iff_ne]; exact fun h => c60 (u8_eq _ 60 (by decide) h)
      have hn : ∀ j, j < i + 1 → X.data.toList[j]? ≠ some 60 := fun j hj => by
        rcases Nat.lt_or_eq_of_le (Nat.le_of_lt_succ hj) with h1 | rfl
        · exact HI.out j h1
        · rw [HO.out]; exact fun e => c60 (Option.some.inj e)
      have HN := Lib.hid hn
      clear hn c60
      go_wp2
      go_roundw
      case rel => exact ⟨i + 1, by go_num, trivial, by omega, HN⟩
      case measure => simp [intOf]; omega
    · obtain rfl : i = X.size := by omega
      have h60 := no60 X.data.toList (fun j hj => HI.out j (by rw [Lib.size_eq]; exact hj))
      have hxl : X.data.toList = a0.data.toList ++ a1.data.toList := by rw [← HX.out, ByteArray.data_append, Array.toList_append]
      rw [hxl, List.mem_append, not_or] at h60
      obtain ⟨h6a, h6b⟩ := h60
      have hC60 : C ≠ 60 := fun e => by
        have := HC.out
        rw [e] at this
        rw [beq_eq_false_iff_ne] at d2
        exact d2 (by rw [← this]; rfl)
      have HR := fun w h => Lib.hid (txtRead_any X 0 w (by omega) (by decide) h)
      have hall := txt_all X.data.toList (by rw [hxl, List.mem_append, not_or]; exact ⟨h6a, h6b⟩)
      rw [hall.1, hall.2, ← Lib.size_eq] at HR
      have HD := fun w h => Lib.hid (txDec_any X false w (by omega) h)
      obtain ⟨T, hT⟩ : ∃ T : ByteArray, (⟨(ddL false X.data.toList).toArray⟩ : ByteArray) = T := ⟨_, rfl⟩
      rw [hT] at HR HD
      have HNX := fun w h => Lib.hid (txtNext_any (a0 ++ ⟨#[60]⟩ ++ ⟨#[C]⟩ ++ a1) 0 w (by
        rw [ByteArray.size_append, ByteArray.size_append, ByteArray.size_append, show (ByteArray.mk #[60]).size = 1 from rfl, show (ByteArray.mk #[C]).size = 1 from rfl]; omega) (by decide) h)
      have hN : nextV (a0 ++ ⟨#[60]⟩ ++ ⟨#[C]⟩ ++ a1).data.toList 0 = (if mkB (60 :: C :: a1.data.toList) = true then a0.size else a0.size + (2 + a1.size)) := by
        by_cases h : mkB (60 :: C :: a1.data.toList) = true
        · rw [if_pos h, next_yes a0 a1 C h6a h]
        · rw [if_neg h, next_not a0 a1 C h6a h6b hC60 (Bool.eq_false_iff.2 h)]
      rw [hN] at HNX
      have C2 : Below w.heap.size w (w1.alloc (.cells #[.int .u8 a2] 5)) := c1.alloc c1.size _
      have C2 := Lib.hid C2
      have p1 : ¬ 9223372036854775807 < a0.size + 1 := by omega
      have p2 : ¬ 9223372036854775807 < a0.size + 1 + 1 := by omega
      have p3 : ¬ 9223372036854775807 < a0.size + 1 + 1 + a1.size := by omega
      have p4 : ¬ 9223372036854775807 < a0.size + 2 + a1.size := by omega
      have p5 : ¬ 9223372036854775807 < a0.size + 2 := by omega
      have HS := Lib.hid (show (a0 ++ ⟨#[60]⟩ ++ ⟨#[C]⟩ ++ a1).size = a0.size + (2 + a1.size) by
        rw [ByteArray.size_append, ByteArray.size_append, ByteArray.size_append, show (ByteArray.mk #[60]).size = 1 from rfl, show (ByteArray.mk #[C]).size = 1 from rfl]; omega)
      have hwy := byte_ways C a2 HC.out
      obtain ⟨M, hM⟩ : ∃ M, mkB (60 :: C :: a1.data.toList) = M := ⟨_, rfl⟩
      have hyes := fun h => (mk_yes C a1.data.toList h).symm.trans hM
      have hno := fun h1 h2 h3 h4 => (mk_no C a1.data.toList h1 h2 h3 h4).symm.trans hM
      rw [hM] at HNX
      have ha10 : a1.data.toList = [] ↔ a1.size = 0 := by rw [Lib.size_eq, List.length_eq_zero_iff]
      clear hN hT hall hxl h6a h6b hC60 HI hM
      rcases hwy with ⟨k1, k2, k3⟩ | ⟨k1, k2, k3, k4⟩ | ⟨k1, rfl⟩ | ⟨k1, rfl⟩ | ⟨k1, rfl⟩ | ⟨k1, k2, k3, k4, k5, k6, k7, k8⟩
      · obtain rfl := hyes (.inl k1)
        rw [if_pos rfl] at HNX
        clear hyes hno k1
        go_wp2_with (fail)
        rw [oneByte _ _ _ HC.out]
        simp only [Result.andThen]
        rw [Oper.upon_value]
        go_wp2_with (fail)
        refine (HNX _ (HW.out.below C2.out)).out.mono ?_
        rintro e w2 ⟨rfl, c2⟩
        have B2 := Lib.hid (C2.out.trans (c2.mono C2.out.size))
        clear c2
        go_wp2_with (fail)
        refine (HR _ (HW.out.below B2.out)).out.mono ?_
        rintro e w3 ⟨rfl, c3⟩
        have B3 := Lib.hid (B2.out.trans (c3.mono B2.out.size))
        clear c3
        go_wp2_with (fail)
        refine (HD _ (HW.out.below B3.out)).out.mono ?_
        rintro e w4 ⟨rfl, c4⟩
        have B4 := Lib.hid (B3.out.trans (c4.mono B3.out.size))
        clear c4
        go_wp2
        go_ret
        exact ⟨ret_bool (by simp), B4.out⟩
      · obtain rfl := hyes (.inl k1)
        rw [if_pos rfl] at HNX
        clear hyes hno k1
        go_wp2_with (fail)
        rw [oneByte _ _ _ HC.out]
        simp only [Result.andThen]
        rw [Oper.upon_value]
        go_wp2_with (fail)
        refine (HNX _ (HW.out.below C2.out)).out.mono ?_
        rintro e w2 ⟨rfl, c2⟩
        have B2 := Lib.hid (C2.out.trans (c2.mono C2.out.size))
        clear c2
        go_wp2_with (fail)
        refine (HR _ (HW.out.below B2.out)).out.mono ?_
        rintro e w3 ⟨rfl, c3⟩
        have B3 := Lib.hid (B2.out.trans (c3.mono B2.out.size))
        clear c3
        go_wp2_with (fail)
        refine (HD _ (HW.out.below B3.out)).out.mono ?_
        rintro e w4 ⟨rfl, c4⟩
        have B4 := Lib.hid (B3.out.trans (c4.mono B3.out.size))
        clear c4
        go_wp2
        go_ret
        exact ⟨ret_bool (by simp), B4.out⟩
      · obtain rfl := hyes (.inr (.inl k1))
        rw [if_pos rfl] at HNX
        clear hyes hno k1
        go_wp2_with (fail)
        rw [oneByte _ _ _ HC.out]
        simp only [Result.andThen]
        rw [Oper.upon_value]
        go_wp2_with (fail)
        refine (HNX _ (HW.out.below C2.out)).out.mono ?_
        rintro e w2 ⟨rfl, c2⟩
        have B2 := Lib.hid (C2.out.trans (c2.mono C2.out.size))
        clear c2
        go_wp2_with (fail)
        refine (HR _ (HW.out.below B2.out)).out.mono ?_
        rintro e w3 ⟨rfl, c3⟩
        have B3 := Lib.hid (B2.out.trans (c3.mono B2.out.size))
        clear c3
        go_wp2_with (fail)
        refine (HD _ (HW.out.below B3.out)).out.mono ?_
        rintro e w4 ⟨rfl, c4⟩
        have B4 := Lib.hid (B3.out.trans (c4.mono B3.out.size))
        clear c4
        go_wp2
        go_ret
        exact ⟨ret_bool (by simp), B4.out⟩
      · obtain rfl := hyes (.inr (.inr (.inl k1)))
        rw [if_pos rfl] at HNX
        clear hyes hno k1
        go_wp2_with (fail)
        rw [oneByte _ _ _ HC.out]
        simp only [Result.andThen]
        rw [Oper.upon_value]
        go_wp2_with (fail)
        refine (HNX _ (HW.out.below C2.out)).out.mono ?_
        rintro e w2 ⟨rfl, c2⟩
        have B2 := Lib.hid (C2.out.trans (c2.mono C2.out.size))
        clear c2
        go_wp2_with (fail)
        refine (HR _ (HW.out.below B2.out)).out.mono ?_
        rintro e w3 ⟨rfl, c3⟩
        have B3 := Lib.hid (B2.out.trans (c3.mono B2.out.size))
        clear c3
        go_wp2_with (fail)
        refine (HD _ (HW.out.below B3.out)).out.mono ?_
        rintro e w4 ⟨rfl, c4⟩
        have B4 := Lib.hid (B3.out.trans (c4.mono B3.out.size))
        clear c4
        go_wp2
        go_ret
        exact ⟨ret_bool (by simp), B4.out⟩
      · by_cases hb0 : a1.size = 0
        · obtain rfl := hno (by rw [k1]; rfl) (by rw [k1]; decide) (by rw [k1]; decide) (fun _ => ha10.2 hb0)
          rw [if_neg Bool.false_ne_true] at HNX
          have g1 : decide ((0 : Int) < (a1.size : Int)) = false := decide_eq_false (by omega)
          have g2 : (((a0.size + (2 + a1.size) : Nat) : Int) == (a0.size : Int)) = false := by rw [beq_eq_false_iff_ne]; omega
          clear hyes hno k1
          go_wp2_with (fail)
          rw [oneByte _ _ _ HC.out]
          simp only [Result.andThen]
          rw [Oper.upon_value]
          go_wp2_with (fail)
          refine (HNX _ (HW.out.below C2.out)).out.mono ?_
          rintro e w2 ⟨rfl, c2⟩
          have B2 := Lib.hid (C2.out.trans (c2.mono C2.out.size))
          clear c2
          go_wp2_with (fail)
          refine (HR _ (HW.out.below B2.out)).out.mono ?_
          rintro e w3 ⟨rfl, c3⟩
          have B3 := Lib.hid (B2.out.trans (c3.mono B2.out.size))
          clear c3
          go_wp2_with (fail)
          refine (HD _ (HW.out.below B3.out)).out.mono ?_
          rintro e w4 ⟨rfl, c4⟩
          have B4 := Lib.hid (B3.out.trans (c4.mono B3.out.size))
          clear c4
          go_wp2
          go_ret
          exact ⟨ret_bool (by simp; omega), B4.out⟩
        · obtain rfl := hyes (.inr (.inr (.inr ⟨k1, fun e => hb0 (ha10.1 e)⟩)))
          rw [if_pos rfl] at HNX
          have g1 : decide ((0 : Int) < (a1.size : Int)) = true := decide_eq_true (by omega)
          clear hyes hno k1
          go_wp2_with (fail)
          rw [oneByte _ _ _ HC.out]
          simp only [Result.andThen]
          rw [Oper.upon_value]
          go_wp2_with (fail)
          refine (HNX _ (HW.out.below C2.out)).out.mono ?_
          rintro e w2 ⟨rfl, c2⟩
          have B2 := Lib.hid (C2.out.trans (c2.mono C2.out.size))
          clear c2
          go_wp2_with (fail)
          refine (HR _ (HW.out.below B2.out)).out.mono ?_
          rintro e w3 ⟨rfl, c3⟩
          have B3 := Lib.hid (B2.out.trans (c3.mono B2.out.size))
          clear c3
          go_wp2_with (fail)
          refine (HD _ (HW.out.below B3.out)).out.mono ?_
          rintro e w4 ⟨rfl, c4⟩
          have B4 := Lib.hid (B3.out.trans (c4.mono B3.out.size))
          clear c4
          go_wp2
          go_ret
          exact ⟨ret_bool (by simp; omega), B4.out⟩
      · obtain rfl := hno k1 k2 k3 (fun e => absurd e k4)
        rw [if_neg Bool.false_ne_true] at HNX
        have e33 : (a2 == 33) = false := beq_eq_false_iff_ne.2 k5
        have e63 : (a2 == 63) = false := beq_eq_false_iff_ne.2 k6
        have e47 : (a2 == 47) = false := beq_eq_false_iff_ne.2 k7
        clear hyes hno k1 k2 k3 k4 k5 k6 k7
        rcases k8 with ⟨k1, k2⟩ | ⟨k1, k2, k3⟩ | ⟨k1, k2, k3, k4⟩
        all_goals
          go_wp2_with (fail)
          rw [oneByte _ _ _ HC.out]
          simp only [Result.andThen]
          rw [Oper.upon_value]
          go_wp2_with (fail)
          refine (HNX _ (HW.out.below C2.out)).out.mono ?_
          rintro e w2 ⟨rfl, c2⟩
          have B2 := Lib.hid (C2.out.trans (c2.mono C2.out.size))
          clear c2
          go_wp2_with (fail)
          refine (HR _ (HW.out.below B2.out)).out.mono ?_
          rintro e w3 ⟨rfl, c3⟩
          have B3 := Lib.hid (B2.out.trans (c3.mono B2.out.size))
          clear c3
          go_wp2_with (fail)
          refine (HD _ (HW.out.below B3.out)).out.mono ?_
          rintro e w4 ⟨rfl, c4⟩
          have B4 := Lib.hid (B3.out.trans (c4.mono B3.out.size))
          clear c4
          go_wp2
          go_ret
          exact ⟨ret_bool (by simp; try omega), B4.out⟩
  -- go_wp2
  -- go_ret
  -- exact ⟨rfl, by repeat (first | exact Grown.refl _ | apply Grown.drew | apply Grown.alloc)⟩

theorem laid_met (os : Os) : laidMet Tryd.prog Rows.textPlainRow.laid ((laidWorld os).forCall (fun _ _ => 0) ⟨#[], #[.string ByteArray.empty, .string ByteArray.empty, .int .u8 0], []⟩).memory :=
  laidMet_of_run' 8 (by kernel_rfl) (by kernel_rfl)
theorem reads (os : Os) {H : Type} (enc : TypeId × Value → H) : ∃ places, DataW.whole enc Tryd.prog ((laidWorld os).forCall (fun _ _ => 0) ⟨#[], #[.string ByteArray.empty, .string ByteArray.empty, .int .u8 0], []⟩).memory Tryd.f3.params.toList Rows.textPlainSpec.vars false (#[.string ByteArray.empty, .string ByteArray.empty, .int .u8 0] : Array Value).toList 8 = some ([.lit (.string []), .lit (.string []), .lit (.int .u8 0)], [], places) :=
  ⟨[], by kernel_rfl⟩
set_option maxRecDepth 100000 in
theorem lifted (os : Os) (started : os.Started) (H : Type) (enc : TypeId × Value → H) (F : Stop.Interp) :
    ReturnsInHanded {} Tryd.checked os 3 .any ((OpenSpec.ofChange Rows.textPlainSpec).preRow enc Tryd.prog Tryd.f3 Rows.textPlainRow.domain false Rows.textPlainRow.laid) (((OpenSpec.ofChange Rows.textPlainSpec).at F).post enc Tryd.prog Tryd.f3 false true false false) := by
  obtain ⟨places, hx⟩ := reads os enc
  refine returnsInHanded_of_row (C := Tryd.checked) (s := OpenSpec.ofChange Rows.textPlainSpec) own started (by kernel_rfl) Tryd.func3
    (witness_row_at (enc := enc) (C := Tryd.checked) false (laidWorld os) #[.string ByteArray.empty, .string ByteArray.empty, .int .u8 0] rfl (by kernel_rfl) (by kernel_rfl) (by kernel_rfl)
      (OpenSpec.preRow_of_cond 8 hx (by kernel_rfl) (fun k hk => by cases hk) (by kernel_rfl) (laid_met os))) ?_
  intro W base args ds gs before hval0 hW _ _ hsz0 hL hsh _
  have hval : ∀ (j : Nat) t v, Tryd.f3.params[j]? = some t → args[j]? = some v → Value.okWide Tryd.prog W .any base t v := hval0
  have hW' := hW
  obtain ⟨p, q, hA0, hV, rfl, hfz, hnd⟩ := hW
  have hA : DataW.TrodAll enc Tryd.prog W 0 (fun _ => true) true Tryd.f3.params.toList args.toList ds p := hA0
  rw [Tryd.params3] at hA hval
  obtain ⟨v0, vs0, d0, ds0, p0, q0, hargs, rfl, rfl, h0, r0⟩ := trodAll_cons hA
  obtain ⟨v1, vs1, d1, ds1, p1, q1, rfl, rfl, rfl, h1, r1⟩ := trodAll_cons r0
  obtain ⟨v2, vs2, d2, ds2, p2, q2, rfl, rfl, rfl, h2, r2⟩ := trodAll_cons r1
  obtain ⟨rfl, rfl, rfl⟩ := trodAll_nil r2
  obtain rfl : args = #[v0, v1, v2] := by cases args; simp_all
  obtain ⟨rfl, rfl⟩ := trodVars_none hV
  obtain ⟨a0, rfl, rfl, rfl, w0⟩ := open_string Tryd.underlying9 (hval 0 9 v0 rfl rfl) h0
  obtain ⟨a1, rfl, rfl, rfl, w1⟩ := open_string Tryd.underlying9 (hval 1 9 v1 rfl rfl) h1
  obtain ⟨a2, rfl, rfl, rfl, w2⟩ := open_int Tryd.underlying5 (hval 2 5 v2 rfl rfl) h2
  clear hA0 hval0
  refine (walk a0 a1 a2 w0 w1 w2 W (tabAt_of hL hsh) (by have := sized_string (j := 0) hsz0 rfl rfl; rw [Lib.size_eq]; unfold reachBytes at this; omega) (by have := sized_string (j := 1) hsz0 rfl rfl; rw [Lib.size_eq]; unfold reachBytes at this; omega)).mono fun e W' ⟨he, bel⟩ => ?_
  subst he
  exact ⟨_, rfl, _, _, _, [], _, [], hW', trodAll_mk1 (shut_bool Tryd.underlying4 _), (trodAll_cons_mk (shut_string Tryd.underlying9 w0) (trodAll_cons_mk (shut_string Tryd.underlying9 w1) (trodAll_cons_mk (shut_int Tryd.underlying5 w2) trodAll_mk0))), rfl, bel.frame _, fun h => by cases h⟩

theorem said : Rows.TextPlainSaid :=
  OpenClaim.holds_of_cond 3 Tryd.f3 rfl rfl rfl rfl rfl rfl rfl ⟨rfl, rfl, rfl, rfl, rfl⟩ rfl rfl rfl rfl rfl (by kernel_rfl) Tryd.func3 (by kernel_rfl)
    (of_decide_eq_true (by kernel_rfl)) (by unfold Func.isWrapper; first | (rw [if_pos (by decide +kernel)]; kernel_rfl) | (rw [if_neg (by decide +kernel)]; exact ⟨rfl, rfl⟩))
    (fun os started H enc _ F => by rw [OpenClaim.pre_eq_preRow]; exact lifted os started H enc F)
theorem plain (f : FuncId) (fn : Func) (hf : Tryd.pinned.checked.prog.funcNamed "flail/flaillaw14.TextPlain" = some f) (hfn : Tryd.pinned.checked.prog.funcs[f]? = some fn) :
    true = Tryd.pinned.checked.prog.looks [] ∧ ∀ (j : Nat) t, fn.params[j]? = some t → Tryd.pinned.checked.prog.wantsStandIn t = false := by
  obtain rfl : f = 3 := Option.some.inj ((show Tryd.prog.funcNamed "flail/flaillaw14.TextPlain" = some 3 by kernel_rfl).symm.trans hf) |>.symm
  obtain rfl : fn = Tryd.f3 := (Option.some.inj (Tryd.func3.symm.trans hfn)).symm
  refine ⟨by kernel_rfl, fun j t ht => ?_⟩
  rw [Tryd.params3] at ht
  have hm : t ∈ [9, 5] := by first | simpa using Array.mem_of_getElem? ht | (have h := Array.mem_of_getElem? ht; simp at h ⊢; grind)
  have hall : ([9, 5].all fun u => !Tryd.prog.wantsStandIn u) = true := by kernel_rfl
  exact (show Tryd.prog.wantsStandIn t = false by simpa using List.all_eq_true.1 hall t hm)
/-- the statement: the row's card -/
theorem proved : Rows.TextPlainCardSaid :=
  Claim7.holds_tied_plain_at .later [] _ _ _ _ said (fun _ h => by cases h) (by kernel_rfl) (fun _ h => by cases h) textPlain_row_tie rfl ⟨rfl, rfl⟩ (by kernel_rfl) rfl plain (by kernel_rfl)
end Go.Proofs.YtcamkphanakkdaaDoor.textPlain
