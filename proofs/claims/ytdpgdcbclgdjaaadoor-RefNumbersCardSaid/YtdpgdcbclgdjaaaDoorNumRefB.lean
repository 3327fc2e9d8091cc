/-
  What the document's Read answers, for every input: the same.
-/
import Derived.Test.YtdpgdcbclgdjaaaDoorNumRef
namespace Go.Proofs.YtdpgdcbclgdjaaaDoor
open Go.RowKit Go.Lib

theorem digs_at (b : Nat) (L : List UInt8) (j : Nat) (hd : ∀ c ∈ L.take j, isDig b c = true) (h : L.drop j = [] ∨ ∃ c t, L.drop j = c :: t ∧ isDig b c = false) : digs b L = L.take j := by
  have e : digs b (L.take j ++ L.drop j) = L.take j := by
    unfold digs
    rw [List.takeWhile_append_of_pos hd]
    rcases h with h | ⟨c, t, h, hc⟩
    · rw [h, List.takeWhile_nil, List.append_nil]
    · rw [h, List.takeWhile_cons_of_neg (by rw [hc]; exact Bool.false_ne_true), List.append_nil]
  rwa [List.take_append_drop] at e
theorem take_one (L : List UInt8) (j : Nat) (c : UInt8) (t : List UInt8) (h : L.drop j = c :: t) : L.take (j + 1) = L.take j ++ [c] := by
  have hj : j < L.length := by
    rcases Nat.lt_or_ge j L.length with h1 | h1
    · exact h1
    · rw [List.drop_eq_nil_of_le h1] at h; cases h
  rw [List.drop_eq_getElem_cons hj] at h
  injection h with h1 h2
  rw [List.take_succ_eq_append_getElem hj, h1]
theorem digs_twice (b : Nat) (L : List UInt8) : digs b (digs b L) = digs b L := by
  have h := digs_at b (digs b L) (digs b L).length (by
    intro c hc
    rw [List.take_length] at hc
    have := List.all_takeWhile (l := L) (p := isDig b)
    exact List.all_eq_true.1 this c hc) (.inl List.drop_length)
  rwa [List.take_length] at h
theorem valI_digs (x : Bool) (L : List UInt8) (h : digs (baseN x) L = L) (hne : L ≠ []) : valI x L = (valD (baseN x) L : Int) := by
  unfold valI
  rw [if_neg]
  rintro (e | e)
  · exact hne e
  · rw [h] at e; exact Nat.lt_irrefl _ e
theorem valI_none (x : Bool) : valI x [] = -1 := by unfold valI; exact if_pos (.inl rfl)
theorem part (s : ByteArray) (f j : Nat) : (s.extract f (f + j)).data.toList = (s.data.toList.drop f).take j := by
  rw [extract_data, show f + j - f = j by omega]
theorem drop_there (s : ByteArray) (f j : Nat) (h : f + j < s.size) : (s.data.toList.drop f).drop j = s[f + j] :: s.data.toList.drop (f + j + 1) := by
  rw [List.drop_drop]; exact drop_at s (f + j) h
theorem drop_over (s : ByteArray) (f j : Nat) (h : ¬ f + j < s.size) : (s.data.toList.drop f).drop j = [] := by
  rw [List.drop_drop]; exact List.drop_eq_nil_of_le (by rw [← Lib.size_eq]; omega)

theorem ans_no {l : List UInt8} {k : Nat} (hRD : isRef l (k : Int) = decide (digsAt l k ≠ [])) (h : digsAt l k = []) : txtR l (k : Int) = ⟨#[]⟩ ∧ nxtR l (k : Int) = (k : Int) ∧ isRef l (k : Int) = false := by
  have hf : isRef l (k : Int) = false := by rw [hRD, h]; rfl
  exact ⟨txtR_no hf, nxtR_no hf, hf⟩
theorem ans_yes {l : List UInt8} {k : Nat} (hRD : isRef l (k : Int) = decide (digsAt l k ≠ [])) (h : digsAt l k ≠ []) : txtR l (k : Int) = fixS (refN l k) ∧ nxtR l (k : Int) = (endN l k : Nat) ∧ isRef l (k : Int) = true := by
  have hf : isRef l (k : Int) = true := by rw [hRD]; exact decide_eq_true h
  exact ⟨txtR_yes hf, nxtR_yes hf, hf⟩
theorem take_len (s : ByteArray) (f j : Nat) (h : f + j ≤ s.size) : ((s.data.toList.drop f).take j).length = j := by
  rw [List.length_take, List.length_drop, ← Lib.size_eq]; omega

set_option maxRecDepth 100000 in
set_option maxHeartbeats 4000000 in
theorem refRead_at (s : ByteArray) (k : Nat) (w : World) (hs : s.size ≤ 1099511627776) (h35 : s.data.toList.getD k 0 = 35) :
    Calls Tryd.prog 26 #[.string s, .int .i64 (k : Int)] w fun e w' => e = .returned (.tuple #[.string (txtR s.data.toList (k : Int)), .int .i64 (nxtR s.data.toList (k : Int)), .bool (isRef s.data.toList (k : Int))]) ∧ Below w.heap.size w w' := by
  have hk : k < s.size := getD_size s k (by rw [h35]; decide)
  have i35 : ((s[k].toNat : Nat) : Int) = 35 := by rw [← getD_is s k hk, h35]; rfl
  have hRD : isRef s.data.toList (k : Int) = decide (digsAt s.data.toList k ≠ []) := by
    unfold isRef
    rw [show ((k : Nat) : Int).toNat = k by omega, decide_eq_decide]
    exact ⟨fun h => h.2.2, fun h => ⟨by omega, h35, h⟩⟩
  obtain ⟨T, hT⟩ : ∃ T, txtR s.data.toList (k : Int) = T := ⟨_, rfl⟩
  obtain ⟨N, hN⟩ : ∃ N, nxtR s.data.toList (k : Int) = N := ⟨_, rfl⟩
  obtain ⟨O, hO⟩ : ∃ O, isRef s.data.toList (k : Int) = O := ⟨_, rfl⟩
  have HT := Lib.hid hT
  have HN := Lib.hid hN
  have HO := Lib.hid hO
  have HRD := Lib.hid hRD
  rw [hT, hN, hO]
  have hfl := from_le s k hk
  obtain ⟨X, hX⟩ : ∃ X, isX s.data.toList (k + 1) = X := ⟨_, rfl⟩
  have HX := Lib.hid hX
  clear h35 hRD hT hN hO hX
  have I35 := Lib.hid i35
  have b35 : (((s[k].toNat : Nat) : Int) != 35) = false := by rw [i35]; rfl
  clear i35
  have hk0 : decide ((k : Int) < 0) = false := decide_eq_false (by omega)
  have i1 : (k : Int) < (s.size : Int) := by omega
  cases X
  · have HF : Hid (fromN s.data.toList k = k + 1) := Lib.hid (by unfold fromN; rw [HX.out]; rfl)
    rw [HF.out] at hfl
    by_cases h1 : k + 1 < s.size
    · have n1 : (((s[k + 1].toNat : Nat) : Int) == 120) = false := by
        rw [beq_eq_false_iff_ne]; intro h
        have := HX.out
        unfold isX at this
        rw [getD_is s _ h1, decide_eq_false_iff_not] at this
        exact this (.inl (u8_eq _ 120 (by decide) h))
      have n2 : (((s[k + 1].toNat : Nat) : Int) == 88) = false := by
        rw [beq_eq_false_iff_ne]; intro h
        have := HX.out
        unfold isX at this
        rw [getD_is s _ h1, decide_eq_false_iff_not] at this
        exact this (.inr (u8_eq _ 88 (by decide) h))
      have i2 : (k : Int) + 1 < (s.size : Int) := by omega
      go_enter Tryd.func26, Tryd.ntmps26
      go_wp2
      clear hk0
      clear n1 n2 b35
      go_loopw [9] (fun v wr => ∃ j : Nat, k + 1 + j ≤ s.size ∧ v = .int .i64 ((k : Int) + 1 + (j : Int)) ∧ (∀ c ∈ (s.data.toList.drop (k + 1)).take j, isDig 10 c = true) ∧ w = wr) (fun v _ => s.size - (intOf v).toNat)
      case atStart => exact ⟨0, by omega, by go_num, by simp, rfl⟩
      case round =>
        obtain ⟨j, hj, rfl, hd, rfl⟩ := hrel
        have HD := Lib.hid hd
        clear hd
        have j1 : (k : Int) + 1 + (j : Int) ≤ (s.size : Int) := by omega
        have j2 : (k : Int) + 1 ≤ (k : Int) + 1 + (j : Int) := by omega
        by_cases hlt : k + 1 + j < s.size
        · have hc := s[k + 1 + j].toNat_lt
          have j3 : (k : Int) + 1 + (j : Int) < (s.size : Int) := by omega
          rcases hex_range (s[k + 1 + j].toNat : Int) (by omega) (by omega) with h | h
          · have HH := Lib.hid h
            clear h
            have e := digs_at 10 (s.data.toList.drop (k + 1)) j HD.out (.inr ⟨_, _, drop_there s (k + 1) j hlt, dig_no 10 _ HH.out⟩)
            have HDA : Hid (digsAt s.data.toList k = (s.data.toList.drop (k + 1)).take j) := Lib.hid (by unfold digsAt; rw [HX.out, HF.out]; exact e)
            have HTW : Hid (digs 10 ((s.data.toList.drop (k + 1)).take j) = (s.data.toList.drop (k + 1)).take j) := Lib.hid (by rw [← e]; exact digs_twice _ _)
            clear e
            by_cases hj0 : j = 0
            · have HVAL : Hid (valI false (s.extract (k + 1) (k + 1 + j)).data.toList = -1) := Lib.hid (by rw [part, hj0, List.take_zero]; exact valI_none _)
              have HA := Lib.hid (ans_no HRD.out (by rw [HDA.out, hj0, List.take_zero]))
              clear hj0
              go_wp2_with (fail)
              refine (refHex _ _ (by omega) (by omega)).mono ?_
              rintro e w1 ⟨rfl, rfl⟩
              rw [HH.out]
              go_wp2_with (fail)
              refine (refValue _ _ _ (by rw [ByteArray.size_extract]; omega)).mono ?_
              rintro e w1 ⟨rfl, rfl⟩
              rw [HVAL.out]
              go_wp2
              go_ret3
              exact ⟨by rw [← HT.out, ← HN.out, ← HO.out, HA.out.1, HA.out.2.1, HA.out.2.2]; rfl, Below.refl _ _⟩
            · have hne : (s.data.toList.drop (k + 1)).take j ≠ [] := fun h => hj0 (by rw [← take_len s (k + 1) j hj, h]; rfl)
              obtain ⟨v, hv⟩ : ∃ v, refN s.data.toList k = v := ⟨_, rfl⟩
              have hvl : v ≤ 1114112 := by rw [← hv]; exact valD_le _ _
              have HV := Lib.hid hv
              have HVAL : Hid (valI false (s.extract (k + 1) (k + 1 + j)).data.toList = (v : Int)) := Lib.hid (by rw [part, valI_digs false _ HTW.out hne, ← hv, refN, HX.out, HDA.out])
              have HA := Lib.hid (ans_yes HRD.out (by rw [HDA.out]; exact hne))
              clear hj0 hne hv
              by_cases h59 : ((s[k + 1 + j].toNat : Nat) : Int) = 59
              · have b59 : (((s[k + 1 + j].toNat : Nat) : Int) == 59) = true := by rw [h59]; rfl
                have H59 : Hid (s.data.toList.getD (k + 1 + j) 0 = 59) := Lib.hid (by rw [getD_is s _ hlt]; exact u8_eq _ 59 (by decide) h59)
                clear h59
                have HEN : Hid (endN s.data.toList k = k + 1 + j + 1) := Lib.hid (by unfold endN; rw [HF.out, HDA.out, take_len s (k + 1) j hj]; exact if_pos H59.out)
                go_wp2_with (fail)
                refine (refHex _ _ (by omega) (by omega)).mono ?_
                rintro e w1 ⟨rfl, rfl⟩
                rw [HH.out]
                go_wp2_with (fail)
                refine (refValue _ _ _ (by rw [ByteArray.size_extract]; omega)).mono ?_
                rintro e w1 ⟨rfl, rfl⟩
                rw [HVAL.out]
                go_wp2_with (fail)
                refine (refFix v _ (by omega) (by omega)).mono ?_
                rintro e w1 ⟨rfl, hb1⟩
                go_wp2
                go_ret3
                exact ⟨by rw [← HT.out, ← HN.out, ← HO.out, HA.out.1, HA.out.2.1, HA.out.2.2, HV.out, HEN.out]; simp, hb1⟩
              · have b59 : (((s[k + 1 + j].toNat : Nat) : Int) == 59) = false := by rw [beq_eq_false_iff_ne]; exact h59
                have H59 : Hid (s.data.toList.getD (k + 1 + j) 0 ≠ 59) := Lib.hid (by rw [getD_is s _ hlt]; exact u8_ne _ 59 (by decide) h59)
                clear h59
                have HEN : Hid (endN s.data.toList k = k + 1 + j) := Lib.hid (by unfold endN; rw [HF.out, HDA.out, take_len s (k + 1) j hj]; exact if_neg H59.out)
                go_wp2_with (fail)
                refine (refHex _ _ (by omega) (by omega)).mono ?_
                rintro e w1 ⟨rfl, rfl⟩
                rw [HH.out]
                go_wp2_with (fail)
                refine (refValue _ _ _ (by rw [ByteArray.size_extract]; omega)).mono ?_
                rintro e w1 ⟨rfl, rfl⟩
                rw [HVAL.out]
                go_wp2_with (fail)
                refine (refFix v _ (by omega) (by omega)).mono ?_
                rintro e w1 ⟨rfl, hb1⟩
                go_wp2
                go_ret3
                exact ⟨by rw [← HT.out, ← HN.out, ← HO.out, HA.out.1, HA.out.2.1, HA.out.2.2, HV.out, HEN.out]; simp, hb1⟩
          · obtain ⟨d, hd⟩ : ∃ d : Nat, hexI (s[k + 1 + j].toNat : Int) = (d : Int) := ⟨(hexI (s[k + 1 + j].toNat : Int)).toNat, by omega⟩
            rw [hd] at h
            have hd16 : d < 16 := by omega
            have HH := Lib.hid hd
            clear h hd
            by_cases h9 : 9 < d
            · have e := digs_at 10 (s.data.toList.drop (k + 1)) j HD.out (.inr ⟨_, _, drop_there s (k + 1) j hlt, dig_over 10 _ d HH.out (by omega)⟩)
              have HDA : Hid (digsAt s.data.toList k = (s.data.toList.drop (k + 1)).take j) := Lib.hid (by unfold digsAt; rw [HX.out, HF.out]; exact e)
              have HTW : Hid (digs 10 ((s.data.toList.drop (k + 1)).take j) = (s.data.toList.drop (k + 1)).take j) := Lib.hid (by rw [← e]; exact digs_twice _ _)
              clear e
              by_cases hj0 : j = 0
              · have HVAL : Hid (valI false (s.extract (k + 1) (k + 1 + j)).data.toList = -1) := Lib.hid (by rw [part, hj0, List.take_zero]; exact valI_none _)
                have HA := Lib.hid (ans_no HRD.out (by rw [HDA.out, hj0, List.take_zero]))
                clear hj0
                go_wp2_with (fail)
                refine (refHex _ _ (by omega) (by omega)).mono ?_
                rintro e w1 ⟨rfl, rfl⟩
                rw [HH.out]
                go_wp2_with (fail)
                refine (refValue _ _ _ (by rw [ByteArray.size_extract]; omega)).mono ?_
                rintro e w1 ⟨rfl, rfl⟩
                rw [HVAL.out]
                go_wp2
                go_ret3
                exact ⟨by rw [← HT.out, ← HN.out, ← HO.out, HA.out.1, HA.out.2.1, HA.out.2.2]; rfl, Below.refl _ _⟩
              · have hne : (s.data.toList.drop (k + 1)).take j ≠ [] := fun h => hj0 (by rw [← take_len s (k + 1) j hj, h]; rfl)
                obtain ⟨v, hv⟩ : ∃ v, refN s.data.toList k = v := ⟨_, rfl⟩
                have hvl : v ≤ 1114112 := by rw [← hv]; exact valD_le _ _
                have HV := Lib.hid hv
                have HVAL : Hid (valI false (s.extract (k + 1) (k + 1 + j)).data.toList = (v : Int)) := Lib.hid (by rw [part, valI_digs false _ HTW.out hne, ← hv, refN, HX.out, HDA.out])
                have HA := Lib.hid (ans_yes HRD.out (by rw [HDA.out]; exact hne))
                clear hj0 hne hv
                by_cases h59 : ((s[k + 1 + j].toNat : Nat) : Int) = 59
                · have b59 : (((s[k + 1 + j].toNat : Nat) : Int) == 59) = true := by rw [h59]; rfl
                  have H59 : Hid (s.data.toList.getD (k + 1 + j) 0 = 59) := Lib.hid (by rw [getD_is s _ hlt]; exact u8_eq _ 59 (by decide) h59)
                  clear h59
                  have HEN : Hid (endN s.data.toList k = k + 1 + j + 1) := Lib.hid (by unfold endN; rw [HF.out, HDA.out, take_len s (k + 1) j hj]; exact if_pos H59.out)
                  go_wp2_with (fail)
                  refine (refHex _ _ (by omega) (by omega)).mono ?_
                  rintro e w1 ⟨rfl, rfl⟩
                  rw [HH.out]
                  go_wp2_with (fail)
                  refine (refValue _ _ _ (by rw [ByteArray.size_extract]; omega)).mono ?_
                  rintro e w1 ⟨rfl, rfl⟩
                  rw [HVAL.out]
                  go_wp2_with (fail)
                  refine (refFix v _ (by omega) (by omega)).mono ?_
                  rintro e w1 ⟨rfl, hb1⟩
                  go_wp2
                  go_ret3
                  exact ⟨by rw [← HT.out, ← HN.out, ← HO.out, HA.out.1, HA.out.2.1, HA.out.2.2, HV.out, HEN.out]; simp, hb1⟩
                · have b59 : (((s[k + 1 + j].toNat : Nat) : Int) == 59) = false := by rw [beq_eq_false_iff_ne]; exact h59
                  have H59 : Hid (s.data.toList.getD (k + 1 + j) 0 ≠ 59) := Lib.hid (by rw [getD_is s _ hlt]; exact u8_ne _ 59 (by decide) h59)
                  clear h59
                  have HEN : Hid (endN s.data.toList k = k + 1 + j) := Lib.hid (by unfold endN; rw [HF.out, HDA.out, take_len s (k + 1) j hj]; exact if_neg H59.out)
                  go_wp2_with (fail)
                  refine (refHex _ _ (by omega) (by omega)).mono ?_
                  rintro e w1 ⟨rfl, rfl⟩
                  rw [HH.out]
                  go_wp2_with (fail)
                  refine (refValue _ _ _ (by rw [ByteArray.size_extract]; omega)).mono ?_
                  rintro e w1 ⟨rfl, rfl⟩
                  rw [HVAL.out]
                  go_wp2_with (fail)
                  refine (refFix v _ (by omega) (by omega)).mono ?_
                  rintro e w1 ⟨rfl, hb1⟩
                  go_wp2
                  go_ret3
                  exact ⟨by rw [← HT.out, ← HN.out, ← HO.out, HA.out.1, HA.out.2.1, HA.out.2.2, HV.out, HEN.out]; simp, hb1⟩
            · have HY := Lib.hid (dig_yes 10 s[k + 1 + j] d HH.out (by omega))
              go_wp2_with (fail)
              refine (refHex _ _ (by omega) (by omega)).mono ?_
              rintro e w1 ⟨rfl, rfl⟩
              rw [HH.out]
              go_wp2
              go_roundw
              case rel => exact ⟨j + 1, by omega, by go_num, by (rw [take_one _ _ _ _ (drop_there s (k + 1) j hlt)]; intro c hm; rcases List.mem_append.1 hm with hm | hm; exact HD.out c hm; rw [List.mem_singleton.1 hm]; exact HY.out), trivial⟩
              case measure => simp [intOf]; omega
        · have e := digs_at 10 (s.data.toList.drop (k + 1)) j HD.out (.inl (drop_over s (k + 1) j hlt))
          have HDA : Hid (digsAt s.data.toList k = (s.data.toList.drop (k + 1)).take j) := Lib.hid (by unfold digsAt; rw [HX.out, HF.out]; exact e)
          have HTW : Hid (digs 10 ((s.data.toList.drop (k + 1)).take j) = (s.data.toList.drop (k + 1)).take j) := Lib.hid (by rw [← e]; exact digs_twice _ _)
          clear e
          by_cases hj0 : j = 0
          · have HVAL : Hid (valI false (s.extract (k + 1) (k + 1 + j)).data.toList = -1) := Lib.hid (by rw [part, hj0, List.take_zero]; exact valI_none _)
            have HA := Lib.hid (ans_no HRD.out (by rw [HDA.out, hj0, List.take_zero]))
            clear hj0
            go_wp2_with (fail)
            refine (refValue _ _ _ (by rw [ByteArray.size_extract]; omega)).mono ?_
            rintro e w1 ⟨rfl, rfl⟩
            rw [HVAL.out]
            go_wp2
            go_ret3
            exact ⟨by rw [← HT.out, ← HN.out, ← HO.out, HA.out.1, HA.out.2.1, HA.out.2.2]; rfl, Below.refl _ _⟩
          · have hne : (s.data.toList.drop (k + 1)).take j ≠ [] := fun h => hj0 (by rw [← take_len s (k + 1) j hj, h]; rfl)
            obtain ⟨v, hv⟩ : ∃ v, refN s.data.toList k = v := ⟨_, rfl⟩
            have hvl : v ≤ 1114112 := by rw [← hv]; exact valD_le _ _
            have HV := Lib.hid hv
            have HVAL : Hid (valI false (s.extract (k + 1) (k + 1 + j)).data.toList = (v : Int)) := Lib.hid (by rw [part, valI_digs false _ HTW.out hne, ← hv, refN, HX.out, HDA.out])
            have HA := Lib.hid (ans_yes HRD.out (by rw [HDA.out]; exact hne))
            clear hj0 hne hv
            have H59 : Hid (s.data.toList.getD (k + 1 + j) 0 ≠ 59) := Lib.hid (fun h => hlt (getD_size s _ (by rw [h]; decide)))
            have HEN : Hid (endN s.data.toList k = k + 1 + j) := Lib.hid (by unfold endN; rw [HF.out, HDA.out, take_len s (k + 1) j hj]; exact if_neg H59.out)
            go_wp2_with (fail)
            refine (refValue _ _ _ (by rw [ByteArray.size_extract]; omega)).mono ?_
            rintro e w1 ⟨rfl, rfl⟩
            rw [HVAL.out]
            go_wp2_with (fail)
            refine (refFix v _ (by omega) (by omega)).mono ?_
            rintro e w1 ⟨rfl, hb1⟩
            go_wp2
            go_ret3
            exact ⟨by rw [← HT.out, ← HN.out, ← HO.out, HA.out.1, HA.out.2.1, HA.out.2.2, HV.out, HEN.out]; simp, hb1⟩
    · have i2 : (s.size : Int) ≤ (k : Int) + 1 := by omega
      go_enter Tryd.func26, Tryd.ntmps26
      go_wp2
      clear hk0
      clear b35
      go_loopw [9] (fun v wr => ∃ j : Nat, k + 1 + j ≤ s.size ∧ v = .int .i64 ((k : Int) + 1 + (j : Int)) ∧ (∀ c ∈ (s.data.toList.drop (k + 1)).take j, isDig 10 c = true) ∧ w = wr) (fun v _ => s.size - (intOf v).toNat)
      case atStart => exact ⟨0, by omega, by go_num, by simp, rfl⟩
      case round =>
        obtain ⟨j, hj, rfl, hd, rfl⟩ := hrel
        have HD := Lib.hid hd
        clear hd
        have j1 : (k : Int) + 1 + (j : Int) ≤ (s.size : Int) := by omega
        have j2 : (k : Int) + 1 ≤ (k : Int) + 1 + (j : Int) := by omega
        by_cases hlt : k + 1 + j < s.size
        · exact absurd hlt (by omega)
        · have e := digs_at 10 (s.data.toList.drop (k + 1)) j HD.out (.inl (drop_over s (k + 1) j hlt))
          have HDA : Hid (digsAt s.data.toList k = (s.data.toList.drop (k + 1)).take j) := Lib.hid (by unfold digsAt; rw [HX.out, HF.out]; exact e)
          have HTW : Hid (digs 10 ((s.data.toList.drop (k + 1)).take j) = (s.data.toList.drop (k + 1)).take j) := Lib.hid (by rw [← e]; exact digs_twice _ _)
          clear e
          by_cases hj0 : j = 0
          · have HVAL : Hid (valI false (s.extract (k + 1) (k + 1 + j)).data.toList = -1) := Lib.hid (by rw [part, hj0, List.take_zero]; exact valI_none _)
            have HA := Lib.hid (ans_no HRD.out (by rw [HDA.out, hj0, List.take_zero]))
            clear hj0
            go_wp2_with (fail)
            refine (refValue _ _ _ (by rw [ByteArray.size_extract]; omega)).mono ?_
            rintro e w1 ⟨rfl, rfl⟩
            rw [HVAL.out]
            go_wp2
            go_ret3
            exact ⟨by rw [← HT.out, ← HN.out, ← HO.out, HA.out.1, HA.out.2.1, HA.out.2.2]; rfl, Below.refl _ _⟩
          · have hne : (s.data.toList.drop (k + 1)).take j ≠ [] := fun h => hj0 (by rw [← take_len s (k + 1) j hj, h]; rfl)
            obtain ⟨v, hv⟩ : ∃ v, refN s.data.toList k = v := ⟨_, rfl⟩
            have hvl : v ≤ 1114112 := by rw [← hv]; exact valD_le _ _
            have HV := Lib.hid hv
            have HVAL : Hid (valI false (s.extract (k + 1) (k + 1 + j)).data.toList = (v : Int)) := Lib.hid (by rw [part, valI_digs false _ HTW.out hne, ← hv, refN, HX.out, HDA.out])
            have HA := Lib.hid (ans_yes HRD.out (by rw [HDA.out]; exact hne))
            clear hj0 hne hv
            have H59 : Hid (s.data.toList.getD (k + 1 + j) 0 ≠ 59) := Lib.hid (fun h => hlt (getD_size s _ (by rw [h]; decide)))
            have HEN : Hid (endN s.data.toList k = k + 1 + j) := Lib.hid (by unfold endN; rw [HF.out, HDA.out, take_len s (k + 1) j hj]; exact if_neg H59.out)
            go_wp2_with (fail)
            refine (refValue _ _ _ (by rw [ByteArray.size_extract]; omega)).mono ?_
            rintro e w1 ⟨rfl, rfl⟩
            rw [HVAL.out]
            go_wp2_with (fail)
            refine (refFix v _ (by omega) (by omega)).mono ?_
            rintro e w1 ⟨rfl, hb1⟩
            go_wp2
            go_ret3
            exact ⟨by rw [← HT.out, ← HN.out, ← HO.out, HA.out.1, HA.out.2.1, HA.out.2.2, HV.out, HEN.out]; simp, hb1⟩
  · have HF : Hid (fromN s.data.toList k = k + 1 + 1) := Lib.hid (by unfold fromN; rw [HX.out]; rfl)
    rw [HF.out] at hfl
    have h1 : k + 1 < s.size := isX_size s _ HX.out
    have i2 : (k : Int) + 1 < (s.size : Int) := by omega
    have hcs : ((s[k + 1].toNat : Nat) : Int) = 120 ∨ ((s[k + 1].toNat : Nat) : Int) = 88 := by
      have := HX.out
      unfold isX at this
      rw [getD_is s _ h1, decide_eq_true_eq] at this
      rcases this with h | h <;> rw [h]
      · exact .inl rfl
      · exact .inr rfl
    rcases hcs with h | h
    · have n1 : (((s[k + 1].toNat : Nat) : Int) == 120) = true := by rw [h]; rfl
      clear h
      go_enter Tryd.func26, Tryd.ntmps26
      go_wp2
      clear hk0
      clear n1 b35
      go_loopw [9] (fun v wr => ∃ j : Nat, k + 1 + 1 + j ≤ s.size ∧ v = .int .i64 ((k : Int) + 1 + 1 + (j : Int)) ∧ (∀ c ∈ (s.data.toList.drop (k + 1 + 1)).take j, isDig 16 c = true) ∧ w = wr) (fun v _ => s.size - (intOf v).toNat)
      case atStart => exact ⟨0, by omega, by go_num, by simp, rfl⟩
      case round =>
        obtain ⟨j, hj, rfl, hd, rfl⟩ := hrel
        have HD := Lib.hid hd
        clear hd
        have j1 : (k : Int) + 1 + 1 + (j : Int) ≤ (s.size : Int) := by omega
        have j2 : (k : Int) + 1 + 1 ≤ (k : Int) + 1 + 1 + (j : Int) := by omega
        by_cases hlt : k + 1 + 1 + j < s.size
        · have hc := s[k + 1 + 1 + j].toNat_lt
          have j3 : (k : Int) + 1 + 1 + (j : Int) < (s.size : Int) := by omega
          rcases hex_range (s[k + 1 + 1 + j].toNat : Int) (by omega) (by omega) with h | h
          · have HH := Lib.hid h
            clear h
            have e := digs_at 16 (s.data.toList.drop (k + 1 + 1)) j HD.out (.inr ⟨_, _, drop_there s (k + 1 + 1) j hlt, dig_no 16 _ HH.out⟩)
            have HDA : Hid (digsAt s.data.toList k = (s.data.toList.drop (k + 1 + 1)).take j) := Lib.hid (by unfold digsAt; rw [HX.out, HF.out]; exact e)
            have HTW : Hid (digs 16 ((s.data.toList.drop (k + 1 + 1)).take j) = (s.data.toList.drop (k + 1 + 1)).take j) := Lib.hid (by rw [← e]; exact digs_twice _ _)
            clear e
            by_cases hj0 : j = 0
            · have HVAL : Hid (valI true (s.extract (k + 1 + 1) (k + 1 + 1 + j)).data.toList = -1) := Lib.hid (by rw [part, hj0, List.take_zero]; exact valI_none _)
              have HA := Lib.hid (ans_no HRD.out (by rw [HDA.out, hj0, List.take_zero]))
              clear hj0
              go_wp2_with (fail)
              refine (refHex _ _ (by omega) (by omega)).mono ?_
              rintro e w1 ⟨rfl, rfl⟩
              rw [HH.out]
              go_wp2_with (fail)
              refine (refValue _ _ _ (by rw [ByteArray.size_extract]; omega)).mono ?_
              rintro e w1 ⟨rfl, rfl⟩
              rw [HVAL.out]
              go_wp2
              go_ret3
              exact ⟨by rw [← HT.out, ← HN.out, ← HO.out, HA.out.1, HA.out.2.1, HA.out.2.2]; rfl, Below.refl _ _⟩
            · have hne : (s.data.toList.drop (k + 1 + 1)).take j ≠ [] := fun h => hj0 (by rw [← take_len s (k + 1 + 1) j hj, h]; rfl)
              obtain ⟨v, hv⟩ : ∃ v, refN s.data.toList k = v := ⟨_, rfl⟩
              have hvl : v ≤ 1114112 := by rw [← hv]; exact valD_le _ _
              have HV := Lib.hid hv
              have HVAL : Hid (valI true (s.extract (k + 1 + 1) (k + 1 + 1 + j)).data.toList = (v : Int)) := Lib.hid (by rw [part, valI_digs true _ HTW.out hne, ← hv, refN, HX.out, HDA.out])
              have HA := Lib.hid (ans_yes HRD.out (by rw [HDA.out]; exact hne))
              clear hj0 hne hv
              by_cases h59 : ((s[k + 1 + 1 + j].toNat : Nat) : Int) = 59
              · have b59 : (((s[k + 1 + 1 + j].toNat : Nat) : Int) == 59) = true := by rw [h59]; rfl
                have H59 : Hid (s.data.toList.getD (k + 1 + 1 + j) 0 = 59) := Lib.hid (by rw [getD_is s _ hlt]; exact u8_eq _ 59 (by decide) h59)
                clear h59
                have HEN : Hid (endN s.data.toList k = k + 1 + 1 + j + 1) := Lib.hid (by unfold endN; rw [HF.out, HDA.out, take_len s (k + 1 + 1) j hj]; exact if_pos H59.out)
                go_wp2_with (fail)
                refine (refHex _ _ (by omega) (by omega)).mono ?_
                rintro e w1 ⟨rfl, rfl⟩
                rw [HH.out]
                go_wp2_with (fail)
                refine (refValue _ _ _ (by rw [ByteArray.size_extract]; omega)).mono ?_
                rintro e w1 ⟨rfl, rfl⟩
                rw [HVAL.out]
                go_wp2_with (fail)
                refine (refFix v _ (by omega) (by omega)).mono ?_
                rintro e w1 ⟨rfl, hb1⟩
                go_wp2
                go_ret3
                exact ⟨by rw [← HT.out, ← HN.out, ← HO.out, HA.out.1, HA.out.2.1, HA.out.2.2, HV.out, HEN.out]; simp, hb1⟩
              · have b59 : (((s[k + 1 + 1 + j].toNat : Nat) : Int) == 59) = false := by rw [beq_eq_false_iff_ne]; exact h59
                have H59 : Hid (s.data.toList.getD (k + 1 + 1 + j) 0 ≠ 59) := Lib.hid (by rw [getD_is s _ hlt]; exact u8_ne _ 59 (by decide) h59)
                clear h59
                have HEN : Hid (endN s.data.toList k = k + 1 + 1 + j) := Lib.hid (by unfold endN; rw [HF.out, HDA.out, take_len s (k + 1 + 1) j hj]; exact if_neg H59.out)
                go_wp2_with (fail)
                refine (refHex _ _ (by omega) (by omega)).mono ?_
                rintro e w1 ⟨rfl, rfl⟩
                rw [HH.out]
                go_wp2_with (fail)
                refine (refValue _ _ _ (by rw [ByteArray.size_extract]; omega)).mono ?_
                rintro e w1 ⟨rfl, rfl⟩
                rw [HVAL.out]
                go_wp2_with (fail)
                refine (refFix v _ (by omega) (by omega)).mono ?_
                rintro e w1 ⟨rfl, hb1⟩
                go_wp2
                go_ret3
                exact ⟨by rw [← HT.out, ← HN.out, ← HO.out, HA.out.1, HA.out.2.1, HA.out.2.2, HV.out, HEN.out]; simp, hb1⟩
          · obtain ⟨d, hd⟩ : ∃ d : Nat, hexI (s[k + 1 + 1 + j].toNat : Int) = (d : Int) := ⟨(hexI (s[k + 1 + 1 + j].toNat : Int)).toNat, by omega⟩
            rw [hd] at h
            have hd16 : d < 16 := by omega
            have HH := Lib.hid hd
            clear h hd
            have HY := Lib.hid (dig_yes 16 s[k + 1 + 1 + j] d HH.out (by omega))
            go_wp2_with (fail)
            refine (refHex _ _ (by omega) (by omega)).mono ?_
            rintro e w1 ⟨rfl, rfl⟩
            rw [HH.out]
            go_wp2
            all_goals
              go_roundw
              case rel => exact ⟨j + 1, by omega, by go_num, by (rw [take_one _ _ _ _ (drop_there s (k + 1 + 1) j hlt)]; intro c hm; rcases List.mem_append.1 hm with hm | hm; exact HD.out c hm; rw [List.mem_singleton.1 hm]; exact HY.out), trivial⟩
              case measure => simp [intOf]; omega
        · have e := digs_at 16 (s.data.toList.drop (k + 1 + 1)) j HD.out (.inl (drop_over s (k + 1 + 1) j hlt))
          have HDA : Hid (digsAt s.data.toList k = (s.data.toList.drop (k + 1 + 1)).take j) := Lib.hid (by unfold digsAt; rw [HX.out, HF.out]; exact e)
          have HTW : Hid (digs 16 ((s.data.toList.drop (k + 1 + 1)).take j) = (s.data.toList.drop (k + 1 + 1)).take j) := Lib.hid (by rw [← e]; exact digs_twice _ _)
          clear e
          by_cases hj0 : j = 0
          · have HVAL : Hid (valI true (s.extract (k + 1 + 1) (k + 1 + 1 + j)).data.toList = -1) := Lib.hid (by rw [part, hj0, List.take_zero]; exact valI_none _)
            have HA := Lib.hid (ans_no HRD.out (by rw [HDA.out, hj0, List.take_zero]))
            clear hj0
            go_wp2_with (fail)
            refine (refValue _ _ _ (by rw [ByteArray.size_extract]; omega)).mono ?_
            rintro e w1 ⟨rfl, rfl⟩
            rw [HVAL.out]
            go_wp2
            go_ret3
            exact ⟨by rw [← HT.out, ← HN.out, ← HO.out, HA.out.1, HA.out.2.1, HA.out.2.2]; rfl, Below.refl _ _⟩
          · have hne : (s.data.toList.drop (k + 1 + 1)).take j ≠ [] := fun h => hj0 (by rw [← take_len s (k + 1 + 1) j hj, h]; rfl)
            obtain ⟨v, hv⟩ : ∃ v, refN s.data.toList k = v := ⟨_, rfl⟩
            have hvl : v ≤ 1114112 := by rw [← hv]; exact valD_le _ _
            have HV := Lib.hid hv
            have HVAL : Hid (valI true (s.extract (k + 1 + 1) (k + 1 + 1 + j)).data.toList = (v : Int)) := Lib.hid (by rw [part, valI_digs true _ HTW.out hne, ← hv, refN, HX.out, HDA.out])
            have HA := Lib.hid (ans_yes HRD.out (by rw [HDA.out]; exact hne))
            clear hj0 hne hv
            have H59 : Hid (s.data.toList.getD (k + 1 + 1 + j) 0 ≠ 59) := Lib.hid (fun h => hlt (getD_size s _ (by rw [h]; decide)))
            have HEN : Hid (endN s.data.toList k = k + 1 + 1 + j) := Lib.hid (by unfold endN; rw [HF.out, HDA.out, take_len s (k + 1 + 1) j hj]; exact if_neg H59.out)
            go_wp2_with (fail)
            refine (refValue _ _ _ (by rw [ByteArray.size_extract]; omega)).mono ?_
            rintro e w1 ⟨rfl, rfl⟩
            rw [HVAL.out]
            go_wp2_with (fail)
            refine (refFix v _ (by omega) (by omega)).mono ?_
            rintro e w1 ⟨rfl, hb1⟩
            go_wp2
            go_ret3
            exact ⟨by rw [← HT.out, ← HN.out, ← HO.out, HA.out.1, HA.out.2.1, HA.out.2.2, HV.out, HEN.out]; simp, hb1⟩
    · have n1 : (((s[k + 1].toNat : Nat) : Int) == 120) = false := by rw [h]; rfl
      have n2 : (((s[k + 1].toNat : Nat) : Int) == 88) = true := by rw [h]; rfl
      clear h
      go_enter Tryd.func26, Tryd.ntmps26
      go_wp2
      clear hk0
      clear n1 n2 b35
      go_loopw [9] (fun v wr => ∃ j : Nat, k + 1 + 1 + j ≤ s.size ∧ v = .int .i64 ((k : Int) + 1 + 1 + (j : Int)) ∧ (∀ c ∈ (s.data.toList.drop (k + 1 + 1)).take j, isDig 16 c = true) ∧ w = wr) (fun v _ => s.size - (intOf v).toNat)
      case atStart => exact ⟨0, by omega, by go_num, by simp, rfl⟩
      case round =>
        obtain ⟨j, hj, rfl, hd, rfl⟩ := hrel
        have HD := Lib.hid hd
        clear hd
        have j1 : (k : Int) + 1 + 1 + (j : Int) ≤ (s.size : Int) := by omega
        have j2 : (k : Int) + 1 + 1 ≤ (k : Int) + 1 + 1 + (j : Int) := by omega
        by_cases hlt : k + 1 + 1 + j < s.size
        · have hc := s[k + 1 + 1 + j].toNat_lt
          have j3 : (k : Int) + 1 + 1 + (j : Int) < (s.size : Int) := by omega
          rcases hex_range (s[k + 1 + 1 + j].toNat : Int) (by omega) (by omega) with h | h
          · have HH := Lib.hid h
            clear h
            have e := digs_at 16 (s.data.toList.drop (k + 1 + 1)) j HD.out (.inr ⟨_, _, drop_there s (k + 1 + 1) j hlt, dig_no 16 _ HH.out⟩)
            have HDA : Hid (digsAt s.data.toList k = (s.data.toList.drop (k + 1 + 1)).take j) := Lib.hid (by unfold digsAt; rw [HX.out, HF.out]; exact e)
            have HTW : Hid (digs 16 ((s.data.toList.drop (k + 1 + 1)).take j) = (s.data.toList.drop (k + 1 + 1)).take j) := Lib.hid (by rw [← e]; exact digs_twice _ _)
            clear e
            by_cases hj0 : j = 0
            · have HVAL : Hid (valI true (s.extract (k + 1 + 1) (k + 1 + 1 + j)).data.toList = -1) := Lib.hid (by rw [part, hj0, List.take_zero]; exact valI_none _)
              have HA := Lib.hid (ans_no HRD.out (by rw [HDA.out, hj0, List.take_zero]))
              clear hj0
              go_wp2_with (fail)
              refine (refHex _ _ (by omega) (by omega)).mono ?_
              rintro e w1 ⟨rfl, rfl⟩
              rw [HH.out]
              go_wp2_with (fail)
              refine (refValue _ _ _ (by rw [ByteArray.size_extract]; omega)).mono ?_
              rintro e w1 ⟨rfl, rfl⟩
              rw [HVAL.out]
              go_wp2
              go_ret3
              exact ⟨by rw [← HT.out, ← HN.out, ← HO.out, HA.out.1, HA.out.2.1, HA.out.2.2]; rfl, Below.refl _ _⟩
            · have hne : (s.data.toList.drop (k + 1 + 1)).take j ≠ [] := fun h => hj0 (by rw [← take_len s (k + 1 + 1) j hj, h]; rfl)
              obtain ⟨v, hv⟩ : ∃ v, refN s.data.toList k = v := ⟨_, rfl⟩
              have hvl : v ≤ 1114112 := by rw [← hv]; exact valD_le _ _
              have HV := Lib.hid hv
              have HVAL : Hid (valI true (s.extract (k + 1 + 1) (k + 1 + 1 + j)).data.toList = (v : Int)) := Lib.hid (by rw [part, valI_digs true _ HTW.out hne, ← hv, refN, HX.out, HDA.out])
              have HA := Lib.hid (ans_yes HRD.out (by rw [HDA.out]; exact hne))
              clear hj0 hne hv
              by_cases h59 : ((s[k + 1 + 1 + j].toNat : Nat) : Int) = 59
              · have b59 : (((s[k + 1 + 1 + j].toNat : Nat) : Int) == 59) = true := by rw [h59]; rfl
                have H59 : Hid (s.data.toList.getD (k + 1 + 1 + j) 0 = 59) := Lib.hid (by rw [getD_is s _ hlt]; exact u8_eq _ 59 (by decide) h59)
                clear h59
                have HEN : Hid (endN s.data.toList k = k + 1 + 1 + j + 1) := Lib.hid (by unfold endN; rw [HF.out, HDA.out, take_len s (k + 1 + 1) j hj]; exact if_pos H59.out)
                go_wp2_with (fail)
                refine (refHex _ _ (by omega) (by omega)).mono ?_
                rintro e w1 ⟨rfl, rfl⟩
                rw [HH.out]
                go_wp2_with (fail)
                refine (refValue _ _ _ (by rw [ByteArray.size_extract]; omega)).mono ?_
                rintro e w1 ⟨rfl, rfl⟩
                rw [HVAL.out]
                go_wp2_with (fail)
                refine (refFix v _ (by omega) (by omega)).mono ?_
                rintro e w1 ⟨rfl, hb1⟩
                go_wp2
                go_ret3
                exact ⟨by rw [← HT.out, ← HN.out, ← HO.out, HA.out.1, HA.out.2.1, HA.out.2.2, HV.out, HEN.out]; simp, hb1⟩
              · have b59 : (((s[k + 1 + 1 + j].toNat : Nat) : Int) == 59) = false := by rw [beq_eq_false_iff_ne]; exact h59
                have H59 : Hid (s.data.toList.getD (k + 1 + 1 + j) 0 ≠ 59) := Lib.hid (by rw [getD_is s _ hlt]; exact u8_ne _ 59 (by decide) h59)
                clear h59
                have HEN : Hid (endN s.data.toList k = k + 1 + 1 + j) := Lib.hid (by unfold endN; rw [HF.out, HDA.out, take_len s (k + 1 + 1) j hj]; exact if_neg H59.out)
                go_wp2_with (fail)
                refine (refHex _ _ (by omega) (by omega)).mono ?_
                rintro e w1 ⟨rfl, rfl⟩
                rw [HH.out]
                go_wp2_with (fail)
                refine (refValue _ _ _ (by rw [ByteArray.size_extract]; omega)).mono ?_
                rintro e w1 ⟨rfl, rfl⟩
                rw [HVAL.out]
                go_wp2_with (fail)
                refine (refFix v _ (by omega) (by omega)).mono ?_
                rintro e w1 ⟨rfl, hb1⟩
                go_wp2
                go_ret3
                exact ⟨by rw [← HT.out, ← HN.out, ← HO.out, HA.out.1, HA.out.2.1, HA.out.2.2, HV.out, HEN.out]; simp, hb1⟩
          · obtain ⟨d, hd⟩ : ∃ d : Nat, hexI (s[k + 1 + 1 + j].toNat : Int) = (d : Int) := ⟨(hexI (s[k + 1 + 1 + j].toNat : Int)).toNat, by omega⟩
            rw [hd] at h
            have hd16 : d < 16 := by omega
            have HH := Lib.hid hd
            clear h hd
            have HY := Lib.hid (dig_yes 16 s[k + 1 + 1 + j] d HH.out (by omega))
            go_wp2_with (fail)
            refine (refHex _ _ (by omega) (by omega)).mono ?_
            rintro e w1 ⟨rfl, rfl⟩
            rw [HH.out]
            go_wp2
            all_goals
              go_roundw
              case rel => exact ⟨j + 1, by omega, by go_num, by (rw [take_one _ _ _ _ (drop_there s (k + 1 + 1) j hlt)]; intro c hm; rcases List.mem_append.1 hm with hm | hm; exact HD.out c hm; rw [List.mem_singleton.1 hm]; exact HY.out), trivial⟩
              case measure => simp [intOf]; omega
        · have e := digs_at 16 (s.data.toList.drop (k + 1 + 1)) j HD.out (.inl (drop_over s (k + 1 + 1) j hlt))
          have HDA : Hid (digsAt s.data.toList k = (s.data.toList.drop (k + 1 + 1)).take j) := Lib.hid (by unfold digsAt; rw [HX.out, HF.out]; exact e)
          have HTW : Hid (digs 16 ((s.data.toList.drop (k + 1 + 1)).take j) = (s.data.toList.drop (k + 1 + 1)).take j) := Lib.hid (by rw [← e]; exact digs_twice _ _)
          clear e
          by_cases hj0 : j = 0
          · have HVAL : Hid (valI true (s.extract (k + 1 + 1) (k + 1 + 1 + j)).data.toList = -1) := Lib.hid (by rw [part, hj0, List.take_zero]; exact valI_none _)
            have HA := Lib.hid (ans_no HRD.out (by rw [HDA.out, hj0, List.take_zero]))
            clear hj0
            go_wp2_with (fail)
            refine (refValue _ _ _ (by rw [ByteArray.size_extract]; omega)).mono ?_
            rintro e w1 ⟨rfl, rfl⟩
            rw [HVAL.out]
            go_wp2
            go_ret3
            exact ⟨by rw [← HT.out, ← HN.out, ← HO.out, HA.out.1, HA.out.2.1, HA.out.2.2]; rfl, Below.refl _ _⟩
          · have hne : (s.data.toList.drop (k + 1 + 1)).take j ≠ [] := fun h => hj0 (by rw [← take_len s (k + 1 + 1) j hj, h]; rfl)
            obtain ⟨v, hv⟩ : ∃ v, refN s.data.toList k = v := ⟨_, rfl⟩
            have hvl : v ≤ 1114112 := by rw [← hv]; exact valD_le _ _
            have HV := Lib.hid hv
            have HVAL : Hid (valI true (s.extract (k + 1 + 1) (k + 1 + 1 + j)).data.toList = (v : Int)) := Lib.hid (by rw [part, valI_digs true _ HTW.out hne, ← hv, refN, HX.out, HDA.out])
            have HA := Lib.hid (ans_yes HRD.out (by rw [HDA.out]; exact hne))
            clear hj0 hne hv
            have H59 : Hid (s.data.toList.getD (k + 1 + 1 + j) 0 ≠ 59) := Lib.hid (fun h => hlt (getD_size s _ (by rw [h]; decide)))
            have HEN : Hid (endN s.data.toList k = k + 1 + 1 + j) := Lib.hid (by unfold endN; rw [HF.out, HDA.out, take_len s (k + 1 + 1) j hj]; exact if_neg H59.out)
            go_wp2_with (fail)
            refine (refValue _ _ _ (by rw [ByteArray.size_extract]; omega)).mono ?_
            rintro e w1 ⟨rfl, rfl⟩
            rw [HVAL.out]
            go_wp2_with (fail)
            refine (refFix v _ (by omega) (by omega)).mono ?_
            rintro e w1 ⟨rfl, hb1⟩
            go_wp2
            go_ret3
            exact ⟨by rw [← HT.out, ← HN.out, ← HO.out, HA.out.1, HA.out.2.1, HA.out.2.2, HV.out, HEN.out]; simp, hb1⟩

end Go.Proofs.YtdpgdcbclgdjaaaDoor
