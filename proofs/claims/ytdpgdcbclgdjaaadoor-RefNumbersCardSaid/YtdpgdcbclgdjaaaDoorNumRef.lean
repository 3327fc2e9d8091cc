/-
  What the document's answers for package number are, for every input: the same.
-/
import Derived.Test.YtdpgdcbclgdjaaaDoorNumRead
import Derived.Test.YtdpgdcbclgdjaaaDoorSignRefB
namespace Go.Proofs.YtdpgdcbclgdjaaaDoor
open Go.RowKit Go.Lib

set_option maxRecDepth 100000 in
set_option maxHeartbeats 1000000 in
theorem refFix (n : Int) (w : World) (h0 : -9223372036854775808 ≤ n) (h1 : n ≤ 9223372036854775807) :
    Calls Tryd.prog 47 #[.int .i64 n] w fun e w' => e = .returned (.string (fixS n)) ∧ Below w.heap.size w w' := by
  by_cases hz : n < 1
  · have HB := Lib.hid (fixS_bad n (by unfold fixN; split; decide; rw [if_neg (by omega)]; omega))
    go_enter Tryd.func47, Tryd.ntmps47
    go_wp2
    go_ret
    exact ⟨ret_str HB.out.symm, Below.refl _ _⟩
  by_cases hm : 1114111 < n
  · have HB : Hid (fixS n = ⟨#[239, 191, 189]⟩) := Lib.hid (by
      unfold fixS fixN; rw [if_neg (by omega), if_neg (by omega), encodeRune, encodeRuneZ_bad (.inr (.inr hm))]; rfl)
    go_enter Tryd.func47, Tryd.ntmps47
    go_wp2
    go_ret
    exact ⟨ret_str HB.out.symm, Below.refl _ _⟩
  by_cases hr : 128 ≤ n ∧ n < 160
  · obtain ⟨i, hi⟩ : ∃ i : Nat, n = 128 + (i : Int) := ⟨(n - 128).toNat, by omega⟩
    subst hi
    have hi : i < 32 := by omega
    have HF : Hid (fixS (128 + (i : Int)) = ⟨(encodeRune (tabL.getD i 0)).toArray⟩) := Lib.hid (by
      unfold fixS fixN; rw [if_neg (by omega), if_pos hr, show (128 + (i : Int) - 128).toNat = i by omega])
    obtain ⟨q, hq⟩ : ∃ q, tabL.getD i 0 = q := ⟨_, rfl⟩
    have hc : ∀ W : World, (W.alloc (.cells (tabL.map (Value.int .i64)).toArray 3)).cell? ⟨W.heap.size, i, none⟩ = some (.int .i64 q) := by
      intro W
      rw [World.cell?_alloc_mark, List.getElem?_toArray, List.getElem?_map, List.getElem?_eq_getElem (by exact hi), ← hq, List.getD_eq_getElem?_getD, List.getElem?_eq_getElem (by exact hi)]
      rfl
    simp only [tabL, List.map_cons, List.map_nil] at hc
    rw [hq] at HF
    obtain ⟨hr1, hr2⟩ := hr
    have ii : (i : Int) < 32 := by omega
    clear hz hm hq
    rw [HF.out]
    go_enter Tryd.func47, Tryd.ntmps47
    go_wp2_with (fail)
    refine (refSgn_any q _).mono ?_
    rintro e w1 ⟨rfl, hb1⟩
    go_wp2
    go_ret
    exact ⟨rfl, ((Below.refl _ w).alloc (Nat.le_refl _) _).trans (hb1.mono (by simp))⟩
  · have HF : Hid (fixS n = ⟨(encodeRune n).toArray⟩) := Lib.hid (by
      unfold fixS fixN; rw [if_neg (by omega), if_neg hr])
    rw [HF.out]
    have g0 : 1 ≤ n := by omega
    have g1 : n ≤ 1114111 := by omega
    by_cases h2 : 128 ≤ n
    · have h3 : 160 ≤ n := by omega
      clear hz hr hm
      go_enter Tryd.func47, Tryd.ntmps47
      go_wp2_with (fail)
      refine (refSgn_any n _).mono ?_
      rintro e w1 ⟨rfl, hb1⟩
      go_wp2
      go_ret
      exact ⟨rfl, ((Below.refl _ w).alloc (Nat.le_refl _) _).trans (hb1.mono (by simp))⟩
    · have h3 : n < 128 := by omega
      clear hz hr hm
      go_enter Tryd.func47, Tryd.ntmps47
      go_wp2_with (fail)
      refine (refSgn_any n _).mono ?_
      rintro e w1 ⟨rfl, hb1⟩
      go_wp2
      go_ret
      exact ⟨rfl, ((Below.refl _ w).alloc (Nat.le_refl _) _).trans (hb1.mono (by simp))⟩

set_option maxRecDepth 100000 in
set_option maxHeartbeats 1000000 in
theorem refValue (s : ByteArray) (x : Bool) (w : World) (hs : s.size ≤ 1099511627776) :
    Calls Tryd.prog 46 #[.string s, .bool x] w fun e w' => e = .returned (.int .i64 (valI x s.data.toList)) ∧ w = w' := by
  obtain ⟨V, hV⟩ : ∃ V, valI x s.data.toList = V := ⟨_, rfl⟩
  have HV := Lib.hid hV
  rw [hV]
  clear hV
  have hlen : s.data.toList.length = s.size := (Lib.size_eq s).symm
  have HL := Lib.hid hlen
  clear hlen
  by_cases hz : s.size = 0
  · have hz0 : (s.size : Int) = 0 := by omega
    have HA : Hid (V = -1) := Lib.hid (by rw [← HV.out, valI]; exact if_pos (.inl (List.length_eq_zero_iff.1 (by rw [HL.out]; exact hz))))
    clear hz
    cases x
    all_goals
      go_enter Tryd.func46, Tryd.ntmps46
      go_wp2
      go_ret
      exact ⟨ret_int HA.out.symm, rfl⟩
  · have hz0 : ((s.size : Int) == 0) = false := by rw [beq_eq_false_iff_ne]; omega
    have hne : s.data.toList ≠ [] := fun h => hz (by rw [← HL.out, h]; rfl)
    have HNE := Lib.hid hne
    obtain ⟨b, hb⟩ : ∃ b, baseN x = b := ⟨_, rfl⟩
    have HW : Hid (V = if s.data.toList = [] ∨ (digs b s.data.toList).length < s.data.toList.length then -1 else (valD b s.data.toList : Int)) := Lib.hid (by rw [← HV.out, ← hb]; rfl)
    have hx : x = false ∧ b = 10 ∨ x = true ∧ b = 16 := by
      cases x
      · exact .inl ⟨rfl, hb.symm⟩
      · exact .inr ⟨rfl, hb.symm⟩
    clear hz hb hne HV
    rcases hx with ⟨rfl, rfl⟩ | ⟨rfl, rfl⟩
    · go_enter Tryd.func46, Tryd.ntmps46
      go_wp2
      go_loopw [6, 7] (fun z v wr => ∃ k n : Nat, k ≤ s.size ∧ v = .int .i64 (k : Int) ∧ z = .int .i64 (n : Int) ∧ n ≤ 1114112 ∧ valD 10 (s.data.toList.take k) = n ∧ (∀ c ∈ s.data.toList.take k, isDig 10 c = true) ∧ w = wr) (fun _ v _ => s.size - (intOf v).toNat)
      case atStart => exact ⟨0, 0, Nat.zero_le _, rfl, rfl, Nat.zero_le _, rfl, by simp, rfl⟩
      case round =>
        obtain ⟨k, n, hk, rfl, rfl, hn0, hn, hd, rfl⟩ := hrel
        have HD := Lib.hid hd
        have HN := Lib.hid hn
        clear hd hn
        by_cases hlt : k < s.size
        · have hc := s[k].toNat_lt
          rcases hex_range (s[k].toNat : Int) (by omega) (by omega) with h | h
          · have HX := Lib.hid h
            clear h
            go_wp2_with (fail)
            refine (refHex _ _ (by omega) (by omega)).mono ?_
            rintro e w1 ⟨rfl, rfl⟩
            rw [HX.out]
            go_wp2
            go_ret
            have e := digs_stop 10 s k HD.out (fun h => dig_no 10 _ HX.out)
            exact ⟨ret_int (by rw [HW.out]; exact (if_pos (.inr (by rw [e, List.length_take, HL.out, Nat.min_eq_left hk]; exact hlt))).symm), rfl⟩
          · obtain ⟨d, hd⟩ : ∃ d : Nat, hexI (s[k].toNat : Int) = (d : Int) := ⟨(hexI (s[k].toNat : Int)).toNat, by omega⟩
            rw [hd] at h
            have hd16 : d < 16 := by omega
            have HX := Lib.hid hd
            clear h hd
            by_cases hlb : 10 ≤ d
            · go_wp2_with (fail)
              refine (refHex _ _ (by omega) (by omega)).mono ?_
              rintro e w1 ⟨rfl, rfl⟩
              rw [HX.out]
              go_wp2
              go_ret
              have e := digs_stop 10 s k HD.out (fun h => dig_over 10 _ d HX.out hlb)
              exact ⟨ret_int (by rw [HW.out]; exact (if_pos (.inr (by rw [e, List.length_take, HL.out, Nat.min_eq_left hk]; exact hlt))).symm), rfl⟩
            · have hlt2 : d < 10 := by omega
              have HY := Lib.hid (dig_yes 10 s[k] d HX.out hlt2)
              have HS : Hid (valD 10 (s.data.toList.take (k + 1)) = capN (n * 10 + d)) := Lib.hid (by rw [take_snoc s k hlt, valD_snoc, HN.out, step_of 10 n _ d HX.out])
              by_cases hcap : 1114112 < (n : Int) * 10 + (d : Int)
              · have HK := Lib.hid (show capN (n * 10 + d) = 1114112 by unfold capN; rw [if_pos (by omega)])
                go_wp2_with (fail)
                refine (refHex _ _ (by omega) (by omega)).mono ?_
                rintro e w1 ⟨rfl, rfl⟩
                rw [HX.out]
                go_wp2
                go_roundw
                case rel => exact ⟨k + 1, 1114112, by omega, by go_num, rfl, Nat.le_refl _, by rw [HS.out, HK.out], take_more 10 s k hlt HD.out HY.out, trivial⟩
                case measure => simp [intOf]; omega
              · have HK := Lib.hid (show capN (n * 10 + d) = n * 10 + d by unfold capN; split <;> omega)
                go_wp2_with (fail)
                refine (refHex _ _ (by omega) (by omega)).mono ?_
                rintro e w1 ⟨rfl, rfl⟩
                rw [HX.out]
                go_wp2
                go_roundw
                case rel => exact ⟨k + 1, n * 10 + d, by omega, by go_num, by go_num, by omega, by rw [HS.out, HK.out], take_more 10 s k hlt HD.out HY.out, trivial⟩
                case measure => simp [intOf]; omega
        · go_wp2
          go_ret
          have e := digs_stop 10 s k HD.out (fun h => absurd h hlt)
          have e2 : s.data.toList.take k = s.data.toList := List.take_of_length_le (by rw [HL.out]; omega)
          exact ⟨ret_int (by rw [HW.out, if_neg (by rw [e, e2]; rintro (h | h); exact HNE.out h; exact Nat.lt_irrefl _ h), ← HN.out, e2]), rfl⟩
    · go_enter Tryd.func46, Tryd.ntmps46
      go_wp2
      go_loopw [6, 7] (fun z v wr => ∃ k n : Nat, k ≤ s.size ∧ v = .int .i64 (k : Int) ∧ z = .int .i64 (n : Int) ∧ n ≤ 1114112 ∧ valD 16 (s.data.toList.take k) = n ∧ (∀ c ∈ s.data.toList.take k, isDig 16 c = true) ∧ w = wr) (fun _ v _ => s.size - (intOf v).toNat)
      case atStart => exact ⟨0, 0, Nat.zero_le _, rfl, rfl, Nat.zero_le _, rfl, by simp, rfl⟩
      case round =>
        obtain ⟨k, n, hk, rfl, rfl, hn0, hn, hd, rfl⟩ := hrel
        have HD := Lib.hid hd
        have HN := Lib.hid hn
        clear hd hn
        by_cases hlt : k < s.size
        · have hc := s[k].toNat_lt
          rcases hex_range (s[k].toNat : Int) (by omega) (by omega) with h | h
          · have HX := Lib.hid h
            clear h
            go_wp2_with (fail)
            refine (refHex _ _ (by omega) (by omega)).mono ?_
            rintro e w1 ⟨rfl, rfl⟩
            rw [HX.out]
            go_wp2
            go_ret
            have e := digs_stop 16 s k HD.out (fun h => dig_no 16 _ HX.out)
            exact ⟨ret_int (by rw [HW.out]; exact (if_pos (.inr (by rw [e, List.length_take, HL.out, Nat.min_eq_left hk]; exact hlt))).symm), rfl⟩
          · obtain ⟨d, hd⟩ : ∃ d : Nat, hexI (s[k].toNat : Int) = (d : Int) := ⟨(hexI (s[k].toNat : Int)).toNat, by omega⟩
            rw [hd] at h
            have hd16 : d < 16 := by omega
            have HX := Lib.hid hd
            clear h hd
            by_cases hlb : 16 ≤ d
            · exact absurd hlb (by omega)
            · have hlt2 : d < 16 := by omega
              have HY := Lib.hid (dig_yes 16 s[k] d HX.out hlt2)
              have HS : Hid (valD 16 (s.data.toList.take (k + 1)) = capN (n * 16 + d)) := Lib.hid (by rw [take_snoc s k hlt, valD_snoc, HN.out, step_of 16 n _ d HX.out])
              by_cases hcap : 1114112 < (n : Int) * 16 + (d : Int)
              · have HK := Lib.hid (show capN (n * 16 + d) = 1114112 by unfold capN; rw [if_pos (by omega)])
                go_wp2_with (fail)
                refine (refHex _ _ (by omega) (by omega)).mono ?_
                rintro e w1 ⟨rfl, rfl⟩
                rw [HX.out]
                go_wp2
                go_roundw
                case rel => exact ⟨k + 1, 1114112, by omega, by go_num, rfl, Nat.le_refl _, by rw [HS.out, HK.out], take_more 16 s k hlt HD.out HY.out, trivial⟩
                case measure => simp [intOf]; omega
              · have HK := Lib.hid (show capN (n * 16 + d) = n * 16 + d by unfold capN; split <;> omega)
                go_wp2_with (fail)
                refine (refHex _ _ (by omega) (by omega)).mono ?_
                rintro e w1 ⟨rfl, rfl⟩
                rw [HX.out]
                go_wp2
                go_roundw
                case rel => exact ⟨k + 1, n * 16 + d, by omega, by go_num, by go_num, by omega, by rw [HS.out, HK.out], take_more 16 s k hlt HD.out HY.out, trivial⟩
                case measure => simp [intOf]; omega
        · go_wp2
          go_ret
          have e := digs_stop 16 s k HD.out (fun h => absurd h hlt)
          have e2 : s.data.toList.take k = s.data.toList := List.take_of_length_le (by rw [HL.out]; omega)
          exact ⟨ret_int (by rw [HW.out, if_neg (by rw [e, e2]; rintro (h | h); exact HNE.out h; exact Nat.lt_irrefl _ h), ← HN.out, e2]), rfl⟩
end Go.Proofs.YtdpgdcbclgdjaaaDoor
