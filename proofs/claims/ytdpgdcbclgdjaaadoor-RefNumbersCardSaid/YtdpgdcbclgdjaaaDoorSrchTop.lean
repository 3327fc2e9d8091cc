/-
  What package search's Line and Longest answer, for every sorted list.
-/
import Derived.Test.YtdpgdcbclgdjaaaDoorSrchCode
namespace Go.Proofs.YtdpgdcbclgdjaaaDoor
open Go.RowKit Go.Lib

theorem dr_below (B : Nat) (w : World) (n : Nat) : Below B w (w.drewN n) := ⟨rfl, rfl, rfl, Nat.le_refl _, fun _ _ => rfl⟩
theorem at_list (a : ByteArray) (k : Nat) (h : k < a.size) : a.data.toList[k]'(by rw [← Lib.size_eq]; exact h) = a[k] := by
  rw [Array.getElem_toList]; rfl
theorem alike_yes (a b : ByteArray) (k T : Nat) (ha : k < a.size) (hb : k < b.size) (h : ((a[k].toNat : Nat) : Int) = (b[k].toNat : Int)) (hT : alikeL (a.data.toList.drop k) (b.data.toList.drop k) + k = T) :
    alikeL (a.data.toList.drop (k + 1)) (b.data.toList.drop (k + 1)) + (k + 1) = T := by
  rw [alikeL_step _ _ k (by rw [← Lib.size_eq]; exact ha) (by rw [← Lib.size_eq]; exact hb), at_list a k ha, at_list b k hb, if_pos (UInt8.toNat_inj.1 (by omega))] at hT
  omega
theorem alike_no (a b : ByteArray) (k T : Nat) (ha : k < a.size) (hb : k < b.size) (h : ¬ ((a[k].toNat : Nat) : Int) = (b[k].toNat : Int)) (hT : alikeL (a.data.toList.drop k) (b.data.toList.drop k) + k = T) : k = T := by
  rw [alikeL_step _ _ k (by rw [← Lib.size_eq]; exact ha) (by rw [← Lib.size_eq]; exact hb), at_list a k ha, at_list b k hb, if_neg (fun e => h (by rw [e]))] at hT
  omega

set_option maxRecDepth 100000 in
set_option maxHeartbeats 1000000 in
theorem alike_any (a b : ByteArray) (w : World) (hs : a.size ≤ 1099511627776) :
    Calls Tryd.prog 55 #[.string a, .string b] w fun e w' => e = .returned (.int .i64 (alikeL a.data.toList b.data.toList : Int)) ∧ ∃ n, w' = w.drewN n := by
  obtain ⟨T, hT⟩ : ∃ T, alikeL a.data.toList b.data.toList = T := ⟨_, rfl⟩
  rw [hT]
  obtain ⟨m, hm⟩ : ∃ m : Nat, min (a.size : Int) (b.size : Int) = (m : Int) := ⟨min a.size b.size, by omega⟩
  have hm1 : m ≤ a.size := by omega
  have hm2 : m ≤ b.size := by omega
  have hm3 : a.size ≤ m ∨ b.size ≤ m := by omega
  have HM3 := Lib.hid hm3
  clear hm3
  have HT := Lib.hid (show alikeL (a.data.toList.drop 0) (b.data.toList.drop 0) + 0 = T from hT)
  clear hT
  go_enter Tryd.func55, Tryd.ntmps55
  go_wp2
  go_loopw [11] (fun v wr => ∃ (k n : Nat), v = .int .i64 (k : Int) ∧ wr = w.drewN n ∧ k ≤ m ∧ alikeL (a.data.toList.drop k) (b.data.toList.drop k) + k = T) (fun v _ => m - (intOf v).toNat)
  case atStart => exact ⟨0, 0, rfl, rfl, Nat.zero_le _, HT.out⟩
  case round =>
    obtain ⟨k, n, rfl, rfl, hk, hT⟩ := hrel
    have HK := Lib.hid hT
    clear hT HT
    by_cases hlt : k < m
    · have ka : k < a.size := by omega
      have kb : k < b.size := by omega
      by_cases he : ((a[k].toNat : Nat) : Int) = (b[k].toNat : Int)
      · have hb : (((a[k].toNat : Nat) : Int) != ((b[k].toNat : Nat) : Int)) = false := by simpa using he
        have HE := Lib.hid he
        clear he
        go_wp2
        go_quiet (fail)
        go_wp2
        go_roundw
        case rel => exact ⟨k + 1, _, rfl, rfl, by omega, alike_yes a b k T ka kb HE.out HK.out⟩
        case measure => simp [intOf]; omega
      · have hb : (((a[k].toNat : Nat) : Int) != ((b[k].toNat : Nat) : Int)) = true := by simpa using he
        have HE := Lib.hid he
        clear he
        go_wp2
        go_quiet (fail)
        go_wp2
        go_ret
        exact ⟨ret_int (by rw [← alike_no a b k T ka kb HE.out HK.out]), _, World.drewN_drewN ..⟩
    · obtain rfl : k = m := by omega
      go_wp2
      go_ret
      exact ⟨ret_int (by
        have := HK.out
        rw [alikeL_end _ _ k (by rw [← Lib.size_eq, ← Lib.size_eq]; exact HM3.out)] at this
        omega), _, rfl⟩

set_option maxRecDepth 100000 in
set_option maxHeartbeats 1000000 in
theorem line_any (t key : ByteArray) (rs : List Ln) (w : World) (hs : t.size ≤ 1099511627776) (ht : t.data.toList = flatL rs) (hv : Valid rs) :
    Calls Tryd.prog 40 #[.string t, .string key] w fun e w' => e = .returned (.tuple #[strV ((lookL rs key.data.toList).getD []), .bool (lookL rs key.data.toList).isSome]) ∧ Below w.heap.size w w' := by
  have HC := fun w => Lib.hid (atMost_any t key rs w hs ht hv)
  have HY := fun h1 h2 => Lib.hid (line_yes hv key.data.toList h1 h2)
  have HN := fun h => Lib.hid (line_no hv key.data.toList h)
  have HR := fun h1 h2 => Lib.hid (show (restAt rs (amI rs key.data.toList)).length ≤ t.size by
    have h3 := line_yes hv key.data.toList h1 h2
    cases ha : amI rs key.data.toList with
    | zero => simp [restAt]
    | succ i =>
      have hi : i < rs.length := by have := amI_le rs key.data.toList; omega
      have h5 := offN_lt_to rs i rs.length hi (Nat.le_refl _)
      rw [toN_all, ← ht, ← Lib.size_eq, lineL_len] at h5
      rw [restAt_succ rs i hi]
      omega)
  obtain ⟨K, hK⟩ : ∃ K, keyAt rs (amI rs key.data.toList) = K := ⟨_, rfl⟩
  obtain ⟨R, hR⟩ : ∃ R, restAt rs (amI rs key.data.toList) = R := ⟨_, rfl⟩
  rw [hK, hR] at HC
  rw [hK] at HY HN HR
  rw [hR] at HY HR
  clear hK hR ht hv
  obtain ⟨V, hV⟩ : ∃ V, lookL rs key.data.toList = V := ⟨_, rfl⟩
  rw [hV] at HY HN ⊢
  clear hV
  unfold strV at *
  by_cases h0 : key.toList = []
  · obtain rfl : V = none := (HN (.inl (by rw [← ByteArray.toList_eq]; exact h0))).out
    clear HY HN HR
    have h0' : key.toList.isEmpty = true := by rw [h0]; rfl
    go_enter Tryd.func40, Tryd.ntmps40
    go_wp2_with (fail)
    refine (HC _).out.mono ?_
    rintro e w1 ⟨rfl, n1, rfl⟩
    go_wp2
    go_ret2
    exact ⟨rfl, dr_below _ w n1⟩
  · have h0' : key.toList.isEmpty = false := by simpa using h0
    by_cases h1 : K = key.toList
    · have HV := HY (by rw [← ByteArray.toList_eq]; exact h0) (by rw [← ByteArray.toList_eq]; exact h1)
      have HRR := HR (by rw [← ByteArray.toList_eq]; exact h0) (by rw [← ByteArray.toList_eq]; exact h1)
      obtain rfl := HV.out
      have h1' : (K == key.toList) = true := by simpa using h1
      have hrs : (⟨R.toArray⟩ : ByteArray).size ≤ 1099511627776 := by rw [Lib.size_eq, List.toList_toArray]; have := HRR.out; omega
      clear HY HN HR HV HRR h1
      go_enter Tryd.func40, Tryd.ntmps40
      go_wp2_with (fail)
      refine (HC _).out.mono ?_
      rintro e w1 ⟨rfl, n1, rfl⟩
      go_wp2_with (go_at_call 23; refine (clone_any _ _ hrs).mono ?_)
      rintro e w2 ⟨rfl, b2⟩
      go_wp2
      go_ret2
      exact ⟨rfl, (dr_below _ w n1).trans b2⟩
    · obtain rfl : V = none := (HN (.inr (by rw [← ByteArray.toList_eq]; exact h1))).out
      have h1' : (K == key.toList) = false := by simpa using h1
      clear HY HN HR h1
      go_enter Tryd.func40, Tryd.ntmps40
      go_wp2_with (fail)
      refine (HC _).out.mono ?_
      rintro e w1 ⟨rfl, n1, rfl⟩
      go_wp2
      go_ret2
      exact ⟨rfl, dr_below _ w n1⟩

theorem win_none (s : ByteArray) (a m : Int) (h : a < 0 ∨ (s.size : Int) ≤ a ∨ m < 1) : winL s.data.toList a m = [] := by
  unfold winL
  split
  · rfl
  · rw [List.drop_eq_nil_of_le (by rw [← Lib.size_eq]; omega), List.take_nil]

def sizeV : Value → Nat | .string l => l.size | _ => 0

set_option maxRecDepth 100000 in
set_option maxHeartbeats 2000000 in
theorem longest_any (t s : ByteArray) (a m : Int) (rs : List Ln) (w : World) (hs : t.size ≤ 1099511627776) (ha : -9223372036854775808 ≤ a ∧ a ≤ 9223372036854775807) (hm : -9223372036854775808 ≤ m ∧ m ≤ 9223372036854775807) (ht : t.data.toList = flatL rs) (hv : Valid rs) :
    Calls Tryd.prog 39 #[.string t, .string s, .int .i64 a, .int .i64 m] w fun e w' => e = .returned (.int .i64 (bestL rs (winL s.data.toList a m) : Int)) ∧ ∃ n, w' = w.drewN n := by
  by_cases h1 : a < 0
  · have HZ := Lib.hid (show bestL rs (winL s.data.toList a m) = 0 by rw [win_none s a m (.inl h1), best_nil])
    rw [HZ.out]
    clear HZ ht hv
    go_enter Tryd.func39, Tryd.ntmps39
    go_wp2
    go_ret
    exact ⟨rfl, 0, rfl⟩
  by_cases h2 : (s.size : Int) ≤ a
  · have HZ := Lib.hid (show bestL rs (winL s.data.toList a m) = 0 by rw [win_none s a m (.inr (.inl h2)), best_nil])
    rw [HZ.out]
    clear HZ ht hv
    go_enter Tryd.func39, Tryd.ntmps39
    go_wp2
    go_ret
    exact ⟨rfl, 0, rfl⟩
  by_cases h3 : m < 1
  · have HZ := Lib.hid (show bestL rs (winL s.data.toList a m) = 0 by rw [win_none s a m (.inr (.inr h3)), best_nil])
    rw [HZ.out]
    clear HZ ht hv
    go_enter Tryd.func39, Tryd.ntmps39
    go_wp2
    go_ret
    exact ⟨rfl, 0, rfl⟩
  obtain ⟨k, rfl⟩ : ∃ k : Nat, a = k := ⟨a.toNat, by omega⟩
  obtain ⟨T, hT⟩ : ∃ T, bestL rs (winL s.data.toList k m) = T := ⟨_, rfl⟩
  rw [hT]
  have HT := Lib.hid hT
  clear hT
  have hk : k < s.size := by omega
  have HTS := Lib.hid (show (flatL rs).length = t.size by rw [← ht, ← Lib.size_eq])
  have HC := fun s w => Lib.hid (atMost_any t s rs w hs ht hv)
  have HA := fun a b w h => Lib.hid (alike_any a b w h)
  unfold strV at *
  obtain ⟨p, hp⟩ : ∃ p : Nat, min m ((s.size - k : Nat) : Int) = (p : Int) := ⟨(min m ((s.size - k : Nat) : Int)).toNat, by omega⟩
  have hp1 : p ≤ s.size - k := by omega
  have hp2 : 1 ≤ p := by omega
  have HT0 := Lib.hid (show bestL rs ((s.extract k s.size).extract 0 p).data.toList = T by
    rw [← HT.out]
    congr 1
    unfold winL
    rw [if_neg (by omega), extract_data, extract_data]
    rw [show ((k : Nat) : Int).toNat = k by omega, List.drop_zero, Nat.sub_zero, List.take_take]
    have e1 : s.data.toList.drop k = (s.data.toList.drop k).take (s.size - k) := by rw [List.take_of_length_le (by rw [List.length_drop, ← Lib.size_eq]; omega)]
    conv => rhs; rw [e1, List.take_take]
    congr 1
    omega)
  have HSZ := Lib.hid (show ((s.extract k s.size).extract 0 p).size ≤ s.size by rw [ByteArray.size_extract, ByteArray.size_extract]; omega)
  clear ht HT
  go_enter Tryd.func39, Tryd.ntmps39
  go_wp2
  go_loopw [1] (fun v wr => ∃ (l : ByteArray) (n : Nat), v = .string l ∧ wr = w.drewN n ∧ l.size ≤ s.size ∧ bestL rs l.data.toList = T) (fun v _ => sizeV v)
  case atStart => exact ⟨_, 0, rfl, rfl, HSZ.out, HT0.out⟩
  case round =>
    obtain ⟨l, n, rfl, rfl, hl, hB⟩ := hrel
    clear HT0 HSZ
    obtain ⟨K, hK⟩ : ∃ K, keyAt rs (amI rs l.data.toList) = K := ⟨_, rfl⟩
    obtain ⟨R, hR⟩ : ∃ R, restAt rs (amI rs l.data.toList) = R := ⟨_, rfl⟩
    have HC1 := fun w => HC l w
    rw [hK, hR] at HC1
    obtain ⟨c, hc⟩ : ∃ c, alikeL K l.data.toList = c := ⟨_, rfl⟩
    have hKl : (⟨K.toArray⟩ : ByteArray).size = K.length := by rw [Lib.size_eq, List.toList_toArray]
    have hKt : K.length ≤ t.size := by
      rw [← hK]
      cases ha : amI rs l.data.toList with
      | zero => simp [keyAt]
      | succ i =>
        have hi : i < rs.length := by have := amI_le rs l.data.toList; omega
        have h5 := offN_lt_to rs i rs.length hi (Nat.le_refl _)
        have h6 := HTS.out
        rw [toN_all, lineL_len] at h5
        rw [keyAt_succ rs i hi]
        omega
    have HA1 := fun w => HA ⟨K.toArray⟩ l w (by omega)
    have hKd : (⟨K.toArray⟩ : ByteArray).data.toList = K := List.toList_toArray
    rw [hKd, hc] at HA1
    by_cases he : c = K.length
    · have b1 : ((c : Int) == (K.length : Int)) = true := by rw [beq_iff_eq]; omega
      have hd := best_done hv l.data.toList (by rw [hK, hc]; exact he)
      rw [hK, hc, hB] at hd
      have HD := Lib.hid hd
      have HKL := Lib.hid hKl
      clear hK hR hc hKl hKd hB he hd hKt
      go_wp2_with (fail)
      refine (HC1 _).out.mono ?_
      rintro e w1 ⟨rfl, n1, rfl⟩
      go_wp2_with (fail)
      refine (HA1 _).out.mono ?_
      rintro e w1 ⟨rfl, n2, rfl⟩
      go_wp2
      go_ret
      exact ⟨ret_int (by rw [HD.out]), _, rfl⟩
    · have b1 : ((c : Int) == (K.length : Int)) = false := by rw [beq_eq_false_iff_ne]; omega
      obtain ⟨hd1, hd2⟩ := best_less hv l.data.toList (by rw [hK, hc]; exact he)
      rw [hK, hc] at hd1 hd2
      rw [hB] at hd2
      have HD := Lib.hid hd2
      have HKL := Lib.hid hKl
      rw [← Lib.size_eq] at hd1
      clear hK hR hc hKl hKd hB he hd2 hKt
      go_wp2_with (fail)
      refine (HC1 _).out.mono ?_
      rintro e w1 ⟨rfl, n1, rfl⟩
      go_wp2_with (fail)
      refine (HA1 _).out.mono ?_
      rintro e w1 ⟨rfl, n2, rfl⟩
      go_wp2
      go_roundw
      case rel =>
        refine ⟨_, n + n1 + n2, rfl, rfl, by rw [ByteArray.size_extract]; omega, ?_⟩
        rw [extract_data, List.drop_zero, Nat.sub_zero]
        exact HD.out
      case measure => simp only [sizeV, ByteArray.size_extract]; omega

end Go.Proofs.YtdpgdcbclgdjaaaDoor
