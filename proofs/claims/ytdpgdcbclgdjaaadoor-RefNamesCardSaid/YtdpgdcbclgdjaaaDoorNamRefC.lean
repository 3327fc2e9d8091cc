/-
  What the document's functions of layer 6 answer, for every input: a name's text, the longest name, and a name by a number.
-/
import Derived.Test.YtdpgdcbclgdjaaaDoorNamRefB
namespace Go.Proofs.YtdpgdcbclgdjaaaDoor
open Go.RowKit Go.Lib

set_option maxHeartbeats 4000000 in
set_option maxRecDepth 1000000 in
theorem refNmText_any (name : ByteArray) (w : World) (hs : name.size ≤ 1099511627776) :
    Calls Tryd.prog 15 #[.string name] w fun e w' => e = .returned (.string ⟨(textL (aOf (nmLook name.data.toList)) (bOf (nmLook name.data.toList))).toArray⟩) ∧ Below w.heap.size w w' := by
  have HC := fun w => Lib.hid (refNmValue_any name w hs)
  have hx := aOf_lt name.data.toList
  have hy := bOf_lt name.data.toList
  obtain ⟨x, hx'⟩ : ∃ x, aOf (nmLook name.data.toList) = x := ⟨_, rfl⟩
  obtain ⟨y, hy'⟩ : ∃ y, bOf (nmLook name.data.toList) = y := ⟨_, rfl⟩
  rw [hx'] at hx
  rw [hy'] at hy
  rw [hx', hy'] at HC ⊢
  clear hx' hy'
  have HX := fun w => Lib.hid (refSgn_any (x : Int) w)
  have HY := fun w => Lib.hid (refSgn_any (y : Int) w)
  obtain ⟨A, hA⟩ : ∃ A : ByteArray, ⟨(encodeRune (x : Int)).toArray⟩ = A := ⟨_, rfl⟩
  obtain ⟨B, hB⟩ : ∃ B : ByteArray, ⟨(encodeRune (y : Int)).toArray⟩ = B := ⟨_, rfl⟩
  rw [hA] at HX
  rw [hB] at HY
  have hAs : A.size < 8 := by rw [← hA, Lib.size_eq, List.toList_toArray]; have := enc_len (x : Int); omega
  have hBs : B.size < 8 := by rw [← hB, Lib.size_eq, List.toList_toArray]; have := enc_len (y : Int); omega
  have hAB : ¬ 9223372036854775807 < A.size + B.size := by omega
  obtain ⟨R, hR⟩ : ∃ R : ByteArray, ⟨(textL x y).toArray⟩ = R := ⟨_, rfl⟩
  have HR : Hid (R = if y = 0 then A else A ++ B) := Lib.hid (by
    rw [← hR, ← hA, ← hB]
    by_cases h : y = 0
    · rw [if_pos h]; congr 1; unfold textL; rw [if_pos h, List.append_nil]
    · rw [if_neg h]; refine str_ext ?_; unfold textL; rw [if_neg h, ByteArray.data_append, Array.toList_append])
  rw [hR]
  clear hA hB hR
  obtain ⟨X, hX⟩ : ∃ X : Int, (x : Int) = X := ⟨_, rfl⟩
  obtain ⟨Y, hY⟩ : ∃ Y : Int, (y : Int) = Y := ⟨_, rfl⟩
  rw [hX] at HC HX
  rw [hY] at HC HY
  by_cases h : y = 0
  · rw [if_pos h] at HR
    have b1 : (Y == 0) = true := by rw [beq_iff_eq]; omega
    have b2 : (Y != 0) = false := by simp; omega
    clear h hx hy HY hBs hAB hX hY
    go_enter Tryd.func15, Tryd.ntmps15
    go_wp2_with (fail)
    refine (HC _).out.mono ?_
    rintro e w1 ⟨rfl, n, rfl⟩
    go_wp2_with (fail)
    refine (HX _).out.mono ?_
    rintro e w2 ⟨rfl, c2⟩
    go_wp2
    go_ret
    exact ⟨ret_str HR.out.symm, (dr_below _ w n).trans c2⟩
  · rw [if_neg h] at HR
    have b1 : (Y == 0) = false := by rw [beq_eq_false_iff_ne]; omega
    have b2 : (Y != 0) = true := by simp; omega
    clear h hx hy hX hY
    go_enter Tryd.func15, Tryd.ntmps15
    go_wp2_with (fail)
    refine (HC _).out.mono ?_
    rintro e w1 ⟨rfl, n, rfl⟩
    go_wp2_with (fail)
    refine (HX _).out.mono ?_
    rintro e w2 ⟨rfl, c2⟩
    have c3 := (dr_below w.heap.size w n).trans c2
    go_wp2_with (fail)
    refine (HY _).out.mono ?_
    rintro e w3 ⟨rfl, c4⟩
    go_wp2
    go_ret
    exact ⟨ret_str HR.out.symm, c3.trans (c4.mono c3.size)⟩

/-- the longest name, by trying lengths from above -/
theorem best_top (W : Txt) (n : Nat) (hn : n ≤ W.length) (h0 : 0 < n) (hb : bestL nmRows W ≤ n) : ((nmLook (W.take n)).isSome = true → bestL nmRows W = n) ∧ ((nmLook (W.take n)).isSome = false → bestL nmRows W ≤ n - 1) := by
  constructor
  · intro h
    obtain ⟨r, hr⟩ := Option.isSome_iff_exists.1 h
    have h1 := best_ge nmRows W _ (look_row hr) (List.take_prefix n W)
    simp only [List.length_take] at h1
    omega
  · intro h
    rcases best_mem nmRows W with h1 | ⟨r, hr, hp, h1⟩
    · omega
    · by_cases e : bestL nmRows W = n
      · exfalso
        have h2 : W.take n = r.1 := by
          obtain ⟨z, hz⟩ := hp
          rw [← e, h1, ← hz, List.take_left]
        rw [h2, look_of hr] at h
        exact absurd h (by simp)
      · omega
theorem win_take (s : ByteArray) (k n : Nat) (hn : n ≤ 32) (hn2 : n ≤ s.size - k) : (winL s.data.toList (k : Int) 32).take n = (s.extract k (k + n)).data.toList ∧ n ≤ (winL s.data.toList (k : Int) 32).length := by
  unfold winL
  rw [if_neg (by omega), show ((k : Nat) : Int).toNat = k by omega, show ((32 : Int)).toNat = 32 from rfl]
  rw [extract_data, List.take_take, Nat.min_eq_left hn, show k + n - k = n by omega]
  refine ⟨rfl, ?_⟩
  rw [List.length_take, List.length_drop, ← Lib.size_eq]
  omega
theorem best_win (s : ByteArray) (k : Nat) : bestL nmRows (winL s.data.toList (k : Int) 32) ≤ min 32 (s.size - k) := by
  have h1 := best_le nmRows (winL s.data.toList (k : Int) 32)
  have h2 : (winL s.data.toList (k : Int) 32).length ≤ min 32 (s.size - k) := by
    unfold winL
    rw [if_neg (by omega), show ((k : Nat) : Int).toNat = k by omega, show ((32 : Int)).toNat = 32 from rfl, List.length_take, List.length_drop, ← Lib.size_eq]
    omega
  omega

set_option maxHeartbeats 4000000 in
set_option maxRecDepth 1000000 in
theorem refNmLongest_any (s : ByteArray) (a : Int) (w : World) (hs : s.size ≤ 1099511627776) (ha : -9223372036854775808 ≤ a ∧ a ≤ 9223372036854775807) :
    Calls Tryd.prog 27 #[.string s, .int .i64 a] w fun e w' => e = .returned (.int .i64 (bestL nmRows (winL s.data.toList a 32) : Int)) ∧ ∃ n, w' = w.drewN n := by
  by_cases h1 : a < 0
  · have HZ := Lib.hid (show bestL nmRows (winL s.data.toList a 32) = 0 by rw [win_none s a 32 (.inl h1), best_nil])
    rw [HZ.out]
    clear HZ
    go_enter Tryd.func27, Tryd.ntmps27
    go_wp2
    go_ret
    exact ⟨rfl, 0, rfl⟩
  by_cases h2 : (s.size : Int) ≤ a
  · have HZ := Lib.hid (show bestL nmRows (winL s.data.toList a 32) = 0 by rw [win_none s a 32 (.inr (.inl h2)), best_nil])
    rw [HZ.out]
    clear HZ
    go_enter Tryd.func27, Tryd.ntmps27
    go_wp2
    go_ret
    exact ⟨rfl, 0, rfl⟩
  obtain ⟨k, rfl⟩ : ∃ k : Nat, a = k := ⟨a.toNat, by omega⟩
  have hk : k < s.size := by omega
  have HT := fun n h0 hb hn hn2 => Lib.hid (best_top (winL s.data.toList (k : Int) 32) n (win_take s k n hn hn2).2 h0 hb)
  have HW := fun n hn hn2 => Lib.hid (win_take s k n hn hn2).1
  have hM := best_win s k
  obtain ⟨T, hT⟩ : ∃ T, bestL nmRows (winL s.data.toList (k : Int) 32) = T := ⟨_, rfl⟩
  rw [hT] at HT hM ⊢
  clear hT
  obtain ⟨m, hm⟩ : ∃ m : Nat, min (32 : Int) ((s.size : Int) - (k : Int)) = (m : Int) := ⟨(min (32 : Int) ((s.size : Int) - (k : Int))).toNat, by omega⟩
  have hmT : T ≤ m := by omega
  have hm32 : m ≤ 32 := by omega
  have hms : k + m ≤ s.size := by omega
  clear h1 h2 hM ha
  have b1 : decide ((k : Int) < 0) = false := decide_eq_false (by omega)
  have b2 : decide (s.size ≤ k) = false := decide_eq_false (by omega)
  go_enter Tryd.func27, Tryd.ntmps27
  go_wp2
  clear hm b1 b2
  go_loopw [5] (fun v wr => ∃ (n d : Nat), v = .int .i64 (n : Int) ∧ wr = w.drewN d ∧ n ≤ m ∧ T ≤ n) (fun v _ => (intOf v).toNat)
  case atStart => exact ⟨m, 0, rfl, rfl, Nat.le_refl _, hmT⟩
  case round =>
    obtain ⟨n, d, rfl, rfl, hn, hTn⟩ := hrel
    by_cases h0 : n = 0
    · subst h0
      have : T = 0 := by omega
      subst this
      go_wp2
      go_ret
      exact ⟨rfl, _, rfl⟩
    · have h3 := HT n (by omega) hTn (by omega) (by omega)
      have h4 := HW n (by omega) (by omega)
      rw [h4.out] at h3
      have hex : (s.extract k (k + n)).size ≤ 1099511627776 := by rw [ByteArray.size_extract]; omega
      have HC := fun w => Lib.hid (refNmValue_any (s.extract k (k + n)) w hex)
      obtain ⟨o, ho⟩ : ∃ o, nmLook (s.extract k (k + n)).data.toList = o := ⟨_, rfl⟩
      rw [ho] at h3 HC
      obtain ⟨A, hA⟩ : ∃ A : Int, (aOf o : Int) = A := ⟨_, rfl⟩
      obtain ⟨B, hB⟩ : ∃ B : Int, (bOf o : Int) = B := ⟨_, rfl⟩
      obtain ⟨I, hI⟩ : ∃ I, o.isSome = I := ⟨_, rfl⟩
      rw [hA, hB, hI] at HC
      rw [hI] at h3
      clear ho hA hB hI HT HW h4 hex
      have hpos : (0 : Int) < (n : Int) := by omega
      have hkn : k + n ≤ s.size := by omega
      cases I
      · obtain ⟨-, h5⟩ := h3.out
        have h6 := h5 rfl
        clear h3 h5
        obtain ⟨j, rfl⟩ : ∃ j, n = j + 1 := ⟨n - 1, by omega⟩
        go_wp2_with (fail)
        refine (HC _).out.mono ?_
        rintro e w1 ⟨rfl, d1, rfl⟩
        go_wp2
        go_roundw
        case rel => exact ⟨j, _, by go_num, rfl, by omega, by omega⟩
        case measure => simp [intOf]
      · obtain ⟨h5, -⟩ := h3.out
        have h6 := h5 rfl
        subst h6
        clear h3 h5
        go_wp2_with (fail)
        refine (HC _).out.mono ?_
        rintro e w1 ⟨rfl, d1, rfl⟩
        go_wp2
        go_ret
        exact ⟨rfl, _, rfl⟩
end Go.Proofs.YtdpgdcbclgdjaaaDoor
