/-
  The law EscapeUnlike of flail/flaillaw21 answers true for every input, and changes nothing that was there. No condition.
-/
import Derived.Test.YtbcmfcddkegcoaaRows
import Derived.Test.YtbcmfcddkegcoaaEscAwake
import Derived.Test.YtbcmfcddkegcoaaUA
import Derived.WalkKit
import Derived.ProofKit
import Derived.ChangeOld
import Derived.Below
import Derived.OpenShut
import Derived.ShutString
namespace Go.Proofs.Ytbcmfcddkegcoaa.escapeUnlike
open Go.ChangeShapes Go.WideShapes Go.ChangeAt Go.RowKit
open Go.ChangeMaps (open_string shut_string)
set_option linter.unusedVariables false      -- a walk need not use every 'w<i>' (that an integer argument fits its kind)

theorem own : ownKnob Try.prog.godebug = none := by kernel_rfl

theorem byte_no (c d : UInt8) (h : c ≠ d) : (((c.toNat : Nat) : Int) == (d.toNat : Int)) = false := by
  rw [beq_eq_false_iff_ne]
  intro e
  exact h (UInt8.toNat_inj.1 (by omega))
theorem byte_nn (c d : UInt8) (h : c ≠ d) : (((c.toNat : Nat) : Int) != (d.toNat : Int)) = true := by
  unfold bne; rw [byte_no c d h]; rfl
theorem take_next (s : ByteArray) (i : Nat) (h : i < s.size) : s.data.toList.take (i + 1) = s.data.toList.take i ++ [s[i]] := by
  rw [List.take_succ_eq_append_getElem (by rw [← Lib.size_eq]; exact h)]; rfl
theorem easy_no (l : Txt20) (c : UInt8) (h : easyB c = false) : (l ++ [c]).filter easyB = l.filter easyB := by
  rw [List.filter_append, List.filter_cons, h]; simp
theorem easy_yes (l : Txt20) (c : UInt8) (h : easyB c = true) : (l ++ [c]).filter easyB = l.filter easyB ++ [c] := by
  rw [List.filter_append, List.filter_cons, h]; simp
theorem zero_next (l : Txt20) (c : UInt8) (h : 0 ∉ l) (hc : c ≠ 0) : 0 ∉ l ++ [c] := by
  rw [List.mem_append, not_or]
  exact ⟨h, fun e => hc (List.mem_singleton.1 e).symm⟩
theorem encD_easy (d : Int) (h : d = 0 ∨ d = 1) (l : Txt20) (hl : ∀ c ∈ l, easyB c = true) : encD d l = l := by
  rw [encD_in d l (by omega), if_neg (fun e => by have := e.1; omega), List.nil_append, encL_easy l hl]
theorem str_back (P : ByteArray) {l : Txt20} (h : l = P.data.toList) : (⟨l.toArray⟩ : ByteArray) = P := str_ext (by rw [List.toList_toArray, h])
set_option maxRecDepth 100000 in
set_option maxHeartbeats 3000000 in
theorem walk (a0 : Int) (a1 : ByteArray) (a2 : ByteArray) (w0 : (Lit.int .u8 a0).wf = true) (w1 : a1.size ≤ maxLen) (w2 : a2.size ≤ maxLen) (w : World) :
    Calls Try.prog 7 #[.int .u8 a0, .string a1, .string a2] w fun e w' => e = .returned (.bool true) ∧ Below w.heap.size w w' := by
  have hb0 : 0 ≤ a0 ∧ a0 ≤ 255 := by simpa [Lit.wf, IntKind.min, IntKind.max, IntKind.signed, IntKind.bits] using w0
  obtain ⟨h00, h01⟩ := hb0
  clear w0 w1 w2
  by_cases hlen : 300 < a1.size ∨ 300 < a2.size
  · have hc : decide ((300 : Int) < (a1.size : Int)) = true ∨ decide ((300 : Int) < (a1.size : Int)) = false ∧ decide ((300 : Int) < (a2.size : Int)) = true := by
      simp only [decide_eq_true_eq, decide_eq_false_iff_not]; omega
    clear hlen
    rcases hc with hc | ⟨hc, hd⟩
    all_goals
      go_enter Try.func7, Try.ntmps7
      go_wp2_with (fail)
      refine (escAwake_any w).mono ?_
      rintro e w1 ⟨rfl, c1⟩
      go_wp2
      go_ret
      exact ⟨rfl, c1⟩
  have hs1 : a1.size ≤ 300 := by omega
  have hs2 : a2.size ≤ 300 := by omega
  have d1 : decide ((300 : Int) < (a1.size : Int)) = false := decide_eq_false (by omega)
  have d2 : decide ((300 : Int) < (a2.size : Int)) = false := decide_eq_false (by omega)
  clear hlen
  have R1 := fun w => Lib.hid (right_any a1 w)
  have R2 := fun w => Lib.hid (right_any a2 w)
  obtain ⟨v1, hv1⟩ : ∃ v, Lib.validD a1.data.toList = v := ⟨_, rfl⟩
  obtain ⟨v2, hv2⟩ : ∃ v, Lib.validD a2.data.toList = v := ⟨_, rfl⟩
  rw [hv1] at R1
  rw [hv2] at R2
  clear hv1 hv2
  cases v1
  · go_enter Try.func7, Try.ntmps7
    go_wp2_with (fail)
    refine (escAwake_any w).mono ?_
    rintro e w1 ⟨rfl, c1⟩
    go_wp2_with (fail)
    refine (R1 _).out.mono ?_
    rintro e w2 ⟨rfl, c2⟩
    go_wp2
    go_ret
    exact ⟨rfl, c1.trans (c2.mono c1.size)⟩
  cases v2
  · go_enter Try.func7, Try.ntmps7
    go_wp2_with (fail)
    refine (escAwake_any w).mono ?_
    rintro e w1 ⟨rfl, c1⟩
    have B1 := Lib.hid c1
    clear c1
    go_wp2_with (fail)
    refine (R1 _).out.mono ?_
    rintro e w2 ⟨rfl, c2⟩
    have B2 := Lib.hid (B1.out.trans (c2.mono B1.out.size))
    clear c2
    go_wp2_with (fail)
    refine (R2 _).out.mono ?_
    rintro e w3 ⟨rfl, c3⟩
    go_wp2
    go_ret
    exact ⟨rfl, B2.out.trans (c3.mono B2.out.size)⟩
  obtain ⟨k, hk⟩ : ∃ k : Nat, a0 % 3 = (k : Int) := ⟨(a0 % 3).toNat, by omega⟩
  have hk2 : k ≤ 2 := by omega
  have H1 := fun w => Lib.hid (escEnc_any (k : Int) a1 w (by omega) (by omega))
  have H2 := fun w => Lib.hid (escEnc_any (k : Int) a2 w (by omega) (by omega))
  go_enter Try.func7, Try.ntmps7
  go_wp2_with (fail)
  refine (escAwake_any w).mono ?_
  rintro e w1 ⟨rfl, c1⟩
  have B1 := Lib.hid c1
  clear c1
  go_wp2_with (fail)
  refine (R1 _).out.mono ?_
  rintro e w2 ⟨rfl, c2⟩
  have B2 := Lib.hid (B1.out.trans (c2.mono B1.out.size))
  clear c2
  go_wp2_with (fail)
  refine (R2 _).out.mono ?_
  rintro e w3 ⟨rfl, c3⟩
  have B3 := Lib.hid (B2.out.trans (c3.mono B2.out.size))
  clear c3
  go_wp2
  clear d1 d2 R1 R2
  go_loopw [8, 9] (fun v8 v9 wr => ∃ (i : Nat) (P : ByteArray), v9 = .int .i64 (i : Int) ∧ v8 = .string P ∧ i ≤ a1.size ∧ w3 = wr ∧ P.size ≤ i ∧ Hid (P.data.toList = (a1.data.toList.take i).filter easyB) ∧ Hid (0 ∉ a1.data.toList.take i)) (fun _ v _ => a1.size - (intOf v).toNat)
  case atStart => exact ⟨0, ⟨#[]⟩, rfl, rfl, Nat.zero_le _, rfl, Nat.le_refl _, Lib.hid rfl, Lib.hid (by rw [List.take_zero]; exact fun h => by cases h)⟩
  case round =>
    obtain ⟨i, P, rfl, rfl, hi, rfl, hP, HP, HZ⟩ := hrel
    by_cases hlt : i < a1.size
    · have HT := Lib.hid (take_next a1 i hlt)
      by_cases c0 : a1[i] = 0
      · have e0 : (((a1[i].toNat : Nat) : Int) == 0) = true := by rw [c0]; rfl
        clear c0
        go_wp2
        go_ret
        exact ⟨rfl, B3.out⟩
      have e0 : (((a1[i].toNat : Nat) : Int) == 0) = false := byte_no _ 0 c0
      have HZ2 : Hid (0 ∉ a1.data.toList.take (i + 1)) := Lib.hid (by rw [HT.out]; exact zero_next _ _ HZ.out c0)
      by_cases c7 : a1[i].toNat < 128
      · have f7 : ((a1[i].toNat : Nat) : Int) < 128 := by omega
        by_cases c38 : a1[i] = 38
        · have e38 : (((a1[i].toNat : Nat) : Int) == 38) = true := by rw [c38]; rfl
          have m38 : (((a1[i].toNat : Nat) : Int) != 38) = false := by rw [c38]; rfl
          have HP2 : Hid (P.data.toList = (a1.data.toList.take (i + 1)).filter easyB) := Lib.hid (by rw [HT.out, easy_no _ _ (by rw [c38]; decide), HP.out])
          clear c0 c7 c38
          go_wp2
          go_roundw
          case rel => exact ⟨i + 1, P, by simp, rfl, by omega, trivial, by omega, HP2, HZ2⟩
          case measure => simp [intOf]; omega
        by_cases c60 : a1[i] = 60
        · have e38 : (((a1[i].toNat : Nat) : Int) == 38) = false := byte_no _ 38 c38
          have m38 : (((a1[i].toNat : Nat) : Int) != 38) = true := byte_nn _ 38 c38
          have e60 : (((a1[i].toNat : Nat) : Int) == 60) = true := by rw [c60]; rfl
          have m60 : (((a1[i].toNat : Nat) : Int) != 60) = false := by rw [c60]; rfl
          have HP2 : Hid (P.data.toList = (a1.data.toList.take (i + 1)).filter easyB) := Lib.hid (by rw [HT.out, easy_no _ _ (by rw [c60]; decide), HP.out])
          clear c0 c7 c38 c60
          go_wp2
          go_roundw
          case rel => exact ⟨i + 1, P, by simp, rfl, by omega, trivial, by omega, HP2, HZ2⟩
          case measure => simp [intOf]; omega
        by_cases c62 : a1[i] = 62
        · have e38 : (((a1[i].toNat : Nat) : Int) == 38) = false := byte_no _ 38 c38
          have m38 : (((a1[i].toNat : Nat) : Int) != 38) = true := byte_nn _ 38 c38
          have e60 : (((a1[i].toNat : Nat) : Int) == 60) = false := byte_no _ 60 c60
          have m60 : (((a1[i].toNat : Nat) : Int) != 60) = true := byte_nn _ 60 c60
          have e62 : (((a1[i].toNat : Nat) : Int) == 62) = true := by rw [c62]; rfl
          have m62 : (((a1[i].toNat : Nat) : Int) != 62) = false := by rw [c62]; rfl
          have HP2 : Hid (P.data.toList = (a1.data.toList.take (i + 1)).filter easyB) := Lib.hid (by rw [HT.out, easy_no _ _ (by rw [c62]; decide), HP.out])
          clear c0 c7 c38 c60 c62
          go_wp2
          go_roundw
          case rel => exact ⟨i + 1, P, by simp, rfl, by omega, trivial, by omega, HP2, HZ2⟩
          case measure => simp [intOf]; omega
        by_cases c34 : a1[i] = 34
        · have e38 : (((a1[i].toNat : Nat) : Int) == 38) = false := byte_no _ 38 c38
          have m38 : (((a1[i].toNat : Nat) : Int) != 38) = true := byte_nn _ 38 c38
          have e60 : (((a1[i].toNat : Nat) : Int) == 60) = false := byte_no _ 60 c60
          have m60 : (((a1[i].toNat : Nat) : Int) != 60) = true := byte_nn _ 60 c60
          have e62 : (((a1[i].toNat : Nat) : Int) == 62) = false := byte_no _ 62 c62
          have m62 : (((a1[i].toNat : Nat) : Int) != 62) = true := byte_nn _ 62 c62
          have e34 : (((a1[i].toNat : Nat) : Int) == 34) = true := by rw [c34]; rfl
          have m34 : (((a1[i].toNat : Nat) : Int) != 34) = false := by rw [c34]; rfl
          have HP2 : Hid (P.data.toList = (a1.data.toList.take (i + 1)).filter easyB) := Lib.hid (by rw [HT.out, easy_no _ _ (by rw [c34]; decide), HP.out])
          clear c0 c7 c38 c60 c62 c34
          go_wp2
          go_roundw
          case rel => exact ⟨i + 1, P, by simp, rfl, by omega, trivial, by omega, HP2, HZ2⟩
          case measure => simp [intOf]; omega
        by_cases c39 : a1[i] = 39
        · have e38 : (((a1[i].toNat : Nat) : Int) == 38) = false := byte_no _ 38 c38
          have m38 : (((a1[i].toNat : Nat) : Int) != 38) = true := byte_nn _ 38 c38
          have e60 : (((a1[i].toNat : Nat) : Int) == 60) = false := byte_no _ 60 c60
          have m60 : (((a1[i].toNat : Nat) : Int) != 60) = true := byte_nn _ 60 c60
          have e62 : (((a1[i].toNat : Nat) : Int) == 62) = false := byte_no _ 62 c62
          have m62 : (((a1[i].toNat : Nat) : Int) != 62) = true := byte_nn _ 62 c62
          have e34 : (((a1[i].toNat : Nat) : Int) == 34) = false := byte_no _ 34 c34
          have m34 : (((a1[i].toNat : Nat) : Int) != 34) = true := byte_nn _ 34 c34
          have e39 : (((a1[i].toNat : Nat) : Int) == 39) = true := by rw [c39]; rfl
          have m39 : (((a1[i].toNat : Nat) : Int) != 39) = false := by rw [c39]; rfl
          have HP2 : Hid (P.data.toList = (a1.data.toList.take (i + 1)).filter easyB) := Lib.hid (by rw [HT.out, easy_no _ _ (by rw [c39]; decide), HP.out])
          clear c0 c7 c38 c60 c62 c34 c39
          go_wp2
          go_roundw
          case rel => exact ⟨i + 1, P, by simp, rfl, by omega, trivial, by omega, HP2, HZ2⟩
          case measure => simp [intOf]; omega
        by_cases c13 : a1[i] = 13
        · have e38 : (((a1[i].toNat : Nat) : Int) == 38) = false := byte_no _ 38 c38
          have m38 : (((a1[i].toNat : Nat) : Int) != 38) = true := byte_nn _ 38 c38
          have e60 : (((a1[i].toNat : Nat) : Int) == 60) = false := byte_no _ 60 c60
          have m60 : (((a1[i].toNat : Nat) : Int) != 60) = true := byte_nn _ 60 c60
          have e62 : (((a1[i].toNat : Nat) : Int) == 62) = false := byte_no _ 62 c62
          have m62 : (((a1[i].toNat : Nat) : Int) != 62) = true := byte_nn _ 62 c62
          have e34 : (((a1[i].toNat : Nat) : Int) == 34) = false := byte_no _ 34 c34
          have m34 : (((a1[i].toNat : Nat) : Int) != 34) = true := byte_nn _ 34 c34
          have e39 : (((a1[i].toNat : Nat) : Int) == 39) = false := byte_no _ 39 c39
          have m39 : (((a1[i].toNat : Nat) : Int) != 39) = true := byte_nn _ 39 c39
          have e13 : (((a1[i].toNat : Nat) : Int) == 13) = true := by rw [c13]; rfl
          have m13 : (((a1[i].toNat : Nat) : Int) != 13) = false := by rw [c13]; rfl
          have HP2 : Hid (P.data.toList = (a1.data.toList.take (i + 1)).filter easyB) := Lib.hid (by rw [HT.out, easy_no _ _ (by rw [c13]; decide), HP.out])
          clear c0 c7 c38 c60 c62 c34 c39 c13
          go_wp2
          go_roundw
          case rel => exact ⟨i + 1, P, by simp, rfl, by omega, trivial, by omega, HP2, HZ2⟩
          case measure => simp [intOf]; omega
        have he : easyB a1[i] = true := by
          unfold easyB badB
          simp [c7, c0, c38, c60, c62, c34, c39, c13]
        have HP2 : Hid ((P ++ a1.extract i (i + 1) : ByteArray).data.toList = (a1.data.toList.take (i + 1)).filter easyB) := Lib.hid (by
          rw [HT.out, easy_yes _ _ he, ← HP.out, ByteArray.data_append, Array.toList_append, extract_one a1 i hlt])
        have z1 : (a1.extract i (i + 1)).size = 1 := by rw [ByteArray.size_extract]; omega
        have Z1 := Lib.hid z1
        have g1 : ¬ 9223372036854775807 < P.size + (a1.extract i (i + 1)).size := by rw [z1]; omega
        have i1 : (i : Int) + 1 ≤ (a1.size : Int) := by omega
        have e38 : (((a1[i].toNat : Nat) : Int) == 38) = false := byte_no _ 38 c38
        have m38 : (((a1[i].toNat : Nat) : Int) != 38) = true := byte_nn _ 38 c38
        have e60 : (((a1[i].toNat : Nat) : Int) == 60) = false := byte_no _ 60 c60
        have m60 : (((a1[i].toNat : Nat) : Int) != 60) = true := byte_nn _ 60 c60
        have e62 : (((a1[i].toNat : Nat) : Int) == 62) = false := byte_no _ 62 c62
        have m62 : (((a1[i].toNat : Nat) : Int) != 62) = true := byte_nn _ 62 c62
        have e34 : (((a1[i].toNat : Nat) : Int) == 34) = false := byte_no _ 34 c34
        have m34 : (((a1[i].toNat : Nat) : Int) != 34) = true := byte_nn _ 34 c34
        have e39 : (((a1[i].toNat : Nat) : Int) == 39) = false := byte_no _ 39 c39
        have m39 : (((a1[i].toNat : Nat) : Int) != 39) = true := byte_nn _ 39 c39
        have e13 : (((a1[i].toNat : Nat) : Int) == 13) = false := byte_no _ 13 c13
        have m13 : (((a1[i].toNat : Nat) : Int) != 13) = true := byte_nn _ 13 c13
        clear c0 c7 c38 c60 c62 c34 c39 c13 he z1
        go_wp2
        go_roundw
        case rel => exact ⟨i + 1, _, by simp, rfl, by omega, trivial, by rw [ByteArray.size_append, Z1.out]; omega, HP2, HZ2⟩
        case measure => simp [intOf]; omega
      · have f7 : ¬ ((a1[i].toNat : Nat) : Int) < 128 := by omega
        have HP2 : Hid (P.data.toList = (a1.data.toList.take (i + 1)).filter easyB) := Lib.hid (by rw [HT.out, easy_no _ _ (by unfold easyB; simp [c7]), HP.out])
        clear c0
        go_wp2
        go_roundw
        case rel => exact ⟨i + 1, P, by simp, rfl, by omega, trivial, by omega, HP2, HZ2⟩
        case measure => simp [intOf]; omega
    · have HZA : Hid (0 ∉ a1.data.toList) := Lib.hid (by have := HZ.out; rwa [List.take_of_length_le (by rw [← Lib.size_eq]; omega)] at this)
      have he : ∀ c ∈ P.data.toList, easyB c = true := fun c hc => by
        rw [HP.out] at hc
        exact (List.mem_filter.1 hc).2
      have E0 := fun w => Lib.hid (escEnc_any 0 P w (by decide) (by omega))
      have E1 := fun w => Lib.hid (escEnc_any 1 P w (by decide) (by omega))
      rw [encD_easy 0 (.inl rfl) _ he, str_back P rfl] at E0
      rw [encD_easy 1 (.inr rfl) _ he, str_back P rfl] at E1
      clear he
      go_wp2
      go_loopw [10] (fun v wr2 => ∃ j : Nat, v = .int .i64 (j : Int) ∧ j ≤ a2.size ∧ w3 = wr2 ∧ Hid (0 ∉ a2.data.toList.take j)) (fun v _ => a2.size - (intOf v).toNat)
      case atStart => exact ⟨0, rfl, Nat.zero_le _, rfl, Lib.hid (by rw [List.take_zero]; exact fun h => by cases h)⟩
      case round =>
        obtain ⟨j, rfl, hj, rfl, HY⟩ := hrel
        by_cases hlt2 : j < a2.size
        · have HT := Lib.hid (take_next a2 j hlt2)
          by_cases c0 : a2[j] = 0
          · have e0 : (((a2[j].toNat : Nat) : Int) == 0) = true := by rw [c0]; rfl
            clear c0
            go_wp2
            go_ret
            exact ⟨rfl, B3.out⟩
          have e0 : (((a2[j].toNat : Nat) : Int) == 0) = false := byte_no _ 0 c0
          have HY2 : Hid (0 ∉ a2.data.toList.take (j + 1)) := Lib.hid (by rw [HT.out]; exact zero_next _ _ HY.out c0)
          clear c0
          go_wp2
          go_roundw
          case rel => exact ⟨j + 1, by simp, by omega, trivial, HY2⟩
          case measure => simp [intOf]; omega
        · have hzb : 0 ∉ a2.data.toList := by have := HY.out; rwa [List.take_of_length_le (by rw [← Lib.size_eq]; omega)] at this
          by_cases hab : a1.data.toList = a2.data.toList
          · obtain rfl : a1 = a2 := str_ext hab
            obtain ⟨T, hT⟩ : ∃ T : ByteArray, (⟨(encD (k : Int) a1.data.toList).toArray⟩ : ByteArray) = T := ⟨_, rfl⟩
            rw [hT] at H1
            clear hab hzb hT H2
            go_wp2_with (fail)
            refine (H1 _).out.mono ?_
            rintro e y0 ⟨rfl, c0⟩
            have C0 := Lib.hid (B3.out.trans (c0.mono B3.out.size))
            clear c0
            go_wp2_with (fail)
            refine (H1 _).out.mono ?_
            rintro e y1 ⟨rfl, c1⟩
            have C1 := Lib.hid (C0.out.trans (c1.mono C0.out.size))
            clear c1
            go_wp2_with (fail)
            refine (E0 _).out.mono ?_
            rintro e y2 ⟨rfl, c2⟩
            have C2 := Lib.hid (C1.out.trans (c2.mono C1.out.size))
            clear c2
            go_wp2_with (fail)
            refine (E1 _).out.mono ?_
            rintro e y3 ⟨rfl, c3⟩
            have C3 := Lib.hid (C2.out.trans (c3.mono C2.out.size))
            clear c3
            go_wp2
            go_ret
            exact ⟨ret_bool (by simp), C3.out⟩
          · have hne : encD (k : Int) a1.data.toList ≠ encD (k : Int) a2.data.toList := fun e => hab (encD_inj (k : Int) (by omega) _ _ HZA.out hzb e)
            obtain ⟨T, hT, lT, -⟩ := named21 (encD (k : Int) a1.data.toList)
            obtain ⟨U, hU, lU, -⟩ := named21 (encD (k : Int) a2.data.toList)
            rw [hT] at H1
            rw [hU] at H2
            have n1 : (T.toList == U.toList) = false := by rw [str_beq, lT, lU]; exact decide_eq_false hne
            have n2 : (a1.toList == a2.toList) = false := by rw [str_beq]; exact decide_eq_false hab
            clear hab hzb hne hT hU lT lU
            go_wp2_with (fail)
            refine (H1 _).out.mono ?_
            rintro e y0 ⟨rfl, c0⟩
            have C0 := Lib.hid (B3.out.trans (c0.mono B3.out.size))
            clear c0
            go_wp2_with (fail)
            refine (H2 _).out.mono ?_
            rintro e y1 ⟨rfl, c1⟩
            have C1 := Lib.hid (C0.out.trans (c1.mono C0.out.size))
            clear c1
            go_wp2_with (fail)
            refine (E0 _).out.mono ?_
            rintro e y2 ⟨rfl, c2⟩
            have C2 := Lib.hid (C1.out.trans (c2.mono C1.out.size))
            clear c2
            go_wp2_with (fail)
            refine (E1 _).out.mono ?_
            rintro e y3 ⟨rfl, c3⟩
            have C3 := Lib.hid (C2.out.trans (c3.mono C2.out.size))
            clear c3
            go_wp2
            go_ret
            exact ⟨ret_bool (by simp), C3.out⟩
  -- go_wp2
  -- go_ret
  -- exact ⟨rfl, by repeat (first | exact Grown.refl _ | apply Grown.drew | apply Grown.alloc)⟩

set_option maxRecDepth 100000 in
theorem lifted (os : Os) (started : os.Started) (H : Type) (enc : TypeId × Value → H) :
    ReturnsInHanded {} Try.checked os 7 .any (Rows.escapeUnlikeSpec.pre6 enc Try.prog Try.f7 Rows.escapeUnlikeRow.domain false) (Rows.escapeUnlikeSpec.post enc Try.prog Try.f7 false true false false) := by
  refine returnsInHanded_of_change (C := Try.checked) own started (by kernel_rfl) Try.func7
    (ChangeSpec.witness6 (enc := enc) (C := Try.checked) false ⟨#[], #[.int .u8 0, .string ByteArray.empty, .string ByteArray.empty], []⟩ 8 (by kernel_rfl) (by kernel_rfl) (by kernel_rfl) (by kernel_rfl)) ?_
  intro W base args ds gs before hval0 hW hcnd _
  have hval : ∀ (j : Nat) t v, Try.f7.params[j]? = some t → args[j]? = some v → Value.okWide Try.prog W .any base t v := hval0
  have hW' := hW
  obtain ⟨p, q, hA0, hV, rfl, hfz, hnd⟩ := hW
  have hA : DataW.TrodAll enc Try.prog W 0 (fun _ => true) true Try.f7.params.toList args.toList ds p := hA0
  rw [Try.params7] at hA hval
  obtain ⟨v0, vs0, d0, ds0, p0, q0, hargs, rfl, rfl, h0, r0⟩ := trodAll_cons hA
  obtain ⟨v1, vs1, d1, ds1, p1, q1, rfl, rfl, rfl, h1, r1⟩ := trodAll_cons r0
  obtain ⟨v2, vs2, d2, ds2, p2, q2, rfl, rfl, rfl, h2, r2⟩ := trodAll_cons r1
  obtain ⟨rfl, rfl, rfl⟩ := trodAll_nil r2
  obtain rfl : args = #[v0, v1, v2] := by cases args; simp_all
  obtain ⟨rfl, rfl⟩ := trodVars_none hV
  obtain ⟨a0, rfl, rfl, rfl, w0⟩ := open_int Try.underlying5 (hval 0 5 v0 rfl rfl) h0
  obtain ⟨a1, rfl, rfl, rfl, w1⟩ := open_string Try.underlying9 (hval 1 9 v1 rfl rfl) h1
  obtain ⟨a2, rfl, rfl, rfl, w2⟩ := open_string Try.underlying9 (hval 2 9 v2 rfl rfl) h2
  clear hA0 hval0
  refine (walk a0 a1 a2 w0 w1 w2 W).mono fun e W' ⟨he, bel⟩ => ?_
  subst he
  exact ⟨_, rfl, _, _, _, [], _, [], hW', trodAll_mk1 (shut_bool Try.underlying4 _), (trodAll_cons_mk (shut_int Try.underlying5 w0) (trodAll_cons_mk (shut_string Try.underlying9 w1) (trodAll_cons_mk (shut_string Try.underlying9 w2) trodAll_mk0))), rfl, bel.frame _, fun h => by cases h⟩

theorem over : Rows.escapeUnlikeRow.holds Try.pinned (OpenSpec.ofChange Rows.escapeUnlikeSpec) :=
  OpenClaim.holds_of_wide 7 Try.f7 rfl rfl rfl rfl rfl rfl rfl ⟨rfl, rfl, rfl, rfl, rfl⟩ rfl rfl rfl rfl rfl (by kernel_rfl) Try.func7 (by kernel_rfl)
    (of_decide_eq_true (by kernel_rfl)) (by unfold Func.isWrapper; first | (rw [if_pos (by decide +kernel)]; kernel_rfl) | (rw [if_neg (by decide +kernel)]; exact ⟨rfl, rfl⟩))
    (fun os started H enc _ => lifted os started H enc)

/-- ████ THE STATEMENT ████ -/
theorem proved : Rows.EscapeUnlikeSaid :=
  over
end Go.Proofs.Ytbcmfcddkegcoaa.escapeUnlike
