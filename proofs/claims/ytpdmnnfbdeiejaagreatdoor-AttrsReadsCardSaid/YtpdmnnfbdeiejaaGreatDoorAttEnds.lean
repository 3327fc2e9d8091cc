/-
  What package attrs' functions answer, but for Read: where bytes of a kind end, a value, an attribute.
-/
import Derived.Test.YtpdmnnfbdeiejaaGreatDoorAttScan
import Derived.Test.YtpdmnnfbdeiejaaGreatDoorAttRef
import Derived.Test.YtpdmnnfbdeiejaaGreatDoorP6
import Derived.Test.YtpdmnnfbdeiejaaGreatDoorP3
import Derived.Test.YtpdmnnfbdeiejaaGreatDoorP1
import Derived.Test.YtpdmnnfbdeiejaaGreatDoorP4
namespace Go.Proofs.YtpdmnnfbdeiejaaGreatDoor
open Go.RowKit Go.Lib

theorem spB_int (c : UInt8) (q : Int) (h : (c.toNat : Int) = q) : spaceI q = spB c := by rw [← h]; rfl
theorem beq_int (c : UInt8) (q : Int) (n : Nat) (hn : n < 256) (h : (c.toNat : Int) = q) : (q == (n : Int)) = (c == UInt8.ofNat n) := by rw [← h]; exact u8_beq c n hn

set_option maxRecDepth 100000 in
set_option maxHeartbeats 1000000 in
theorem inValue_any (c : UInt8) (q : Int) (w : World) (hq : (c.toNat : Int) = q) :
    Calls Tryz.prog 30 #[.int .u8 q] w fun e w' => e = .returned (.bool (valB c)) ∧ w' = w := by
  have hlt := c.toNat_lt
  have HS := fun w => Lib.hid (space q w (by omega) (by omega))
  have HV : Hid (valB c = (!spaceI q && !(q == 62))) := Lib.hid (by
    rw [spB_int c q hq, show (q == 62) = (c == 62) from beq_int c q 62 (by decide) hq]
    unfold valB; cases spB c <;> cases (c == 62) <;> rfl)
  rw [HV.out]
  clear hq hlt HV
  cases hs : spaceI q
  · rw [hs] at HS
    cases h62 : (q == 62)
    all_goals
      go_enter Tryz.func30, Tryz.ntmps30
      go_wp2_with (go_at_call 9; refine (HS _).out.mono ?_; rintro e w' ⟨rfl, rfl⟩)
      go_ret
      exact ⟨ret_bool (by simp [bne, h62]), rfl⟩
  · rw [hs] at HS
    go_enter Tryz.func30, Tryz.ntmps30
    go_wp2_with (go_at_call 9; refine (HS _).out.mono ?_; rintro e w' ⟨rfl, rfl⟩)
    go_ret
    exact ⟨rfl, rfl⟩

set_option maxRecDepth 100000 in
set_option maxHeartbeats 1000000 in
theorem inName_any (c : UInt8) (q : Int) (w : World) (hq : (c.toNat : Int) = q) :
    Calls Tryz.prog 18 #[.int .u8 q] w fun e w' => e = .returned (.bool (nameB c)) ∧ w' = w := by
  have HS := fun w => Lib.hid (inValue_any c q w hq)
  have HV : Hid (nameB c = (valB c && !(q == 47) && !(q == 61))) := Lib.hid (by
    rw [show (q == 47) = (c == 47) from beq_int c q 47 (by decide) hq, show (q == 61) = (c == 61) from beq_int c q 61 (by decide) hq]
    unfold nameB endB valB; cases spB c <;> cases (c == 62) <;> cases (c == 47) <;> cases (c == 61) <;> rfl)
  rw [HV.out]
  clear hq HV
  cases hs : valB c
  · rw [hs] at HS
    go_enter Tryz.func18, Tryz.ntmps18
    go_wp2_with (go_at_call 30; refine (HS _).out.mono ?_; rintro e w' ⟨rfl, rfl⟩)
    go_ret
    exact ⟨rfl, rfl⟩
  · rw [hs] at HS
    cases h47 : (q == 47)
    all_goals
      have h47' : (q != 47) = !(q == 47) := rfl
      rw [h47] at h47'
      go_enter Tryz.func18, Tryz.ntmps18
      go_wp2_with (go_at_call 30; refine (HS _).out.mono ?_; rintro e w' ⟨rfl, rfl⟩)
      go_ret
      exact ⟨ret_bool (by first | rfl | simp [bne]), rfl⟩
theorem space_any (c : UInt8) (q : Int) (w : World) (hq : (c.toNat : Int) = q) :
    Calls Tryz.prog 9 #[.int .u8 q] w fun e w' => e = .returned (.bool (spB c)) ∧ w' = w := by
  have hlt := c.toNat_lt
  have := space q w (by omega) (by omega)
  rwa [spB_int c q hq] at this

/-- where bytes of a kind end -/
def bhN (p : UInt8 → Bool) (l : Txt) (i : Nat) : Nat := i + ((l.drop i).takeWhile p).length
theorem bhN_yes (p : UInt8 → Bool) (s : ByteArray) (i : Nat) (h : i < s.size) (hp : p s[i] = true) : bhN p s.data.toList i = bhN p s.data.toList (i + 1) := by
  unfold bhN
  rw [drop_at s i h, tw_yes hp, List.length_cons]; omega
theorem bhN_no (p : UInt8 → Bool) (s : ByteArray) (i : Nat) (h : i < s.size) (hp : p s[i] = false) : bhN p s.data.toList i = i := by
  unfold bhN
  rw [drop_at s i h, tw_no hp]; rfl
theorem bhN_end (p : UInt8 → Bool) (s : ByteArray) : bhN p s.data.toList s.size = s.size := by
  unfold bhN
  rw [List.drop_eq_nil_of_le (by rw [← Lib.size_eq]; exact Nat.le_refl _)]; rfl
theorem bhN_le (p : UInt8 → Bool) (s : ByteArray) (i : Nat) (h : i ≤ s.size) : i ≤ bhN p s.data.toList i ∧ bhN p s.data.toList i ≤ s.size := by
  have h1 := tw_le p (s.data.toList.drop i)
  rw [List.length_drop, ← Lib.size_eq] at h1
  unfold bhN
  omega

set_option maxRecDepth 100000 in
set_option maxHeartbeats 1000000 in
theorem behind_name (s : ByteArray) (a : Int) (i : Nat) (w : World) (hs : s.size ≤ 1099511627776) (ha : (i : Int) = a) (hi : i ≤ s.size) :
    Calls Tryz.prog 17 #[.string s, .int .i64 a, .func (.func 18) #[] #[]] w fun e w' => e = .returned (.int .i64 (bhN nameB s.data.toList i : Int)) ∧ w' = w := by
  subst ha
  have HK := fun c q w h => Lib.hid (inName_any c q w h)
  obtain ⟨R, hR⟩ : ∃ R, bhN nameB s.data.toList i = R := ⟨_, rfl⟩
  rw [hR]
  have HR := Lib.hid hR
  clear hR
  go_enter Tryz.func17, Tryz.ntmps17
  go_wp2
  go_loopw [1] (fun v wr => ∃ k : Nat, v = .int .i64 (k : Int) ∧ w = wr ∧ k ≤ s.size ∧ bhN nameB s.data.toList k = R) (fun v _ => s.size - (intOf v).toNat)
  case atStart => exact ⟨i, rfl, rfl, hi, HR.out⟩
  case round =>
    obtain ⟨k, rfl, rfl, hk, hR⟩ := hrel
    have HRR := Lib.hid hR
    clear hR HR
    by_cases hlt : k < s.size
    · cases hp : nameB s[k]
      · have hRk := Lib.hid ((bhN_no nameB s k hlt hp).symm.trans HRR.out)
        have HC := fun w => Lib.hid (HK s[k] _ w rfl).out
        rw [hp] at HC
        clear hp HK HRR
        go_wp2_with (go_at_call 18; refine (HC _).out.mono ?_; rintro e w' ⟨rfl, rfl⟩)
        go_ret
        exact ⟨ret_int (by rw [hRk.out]), rfl⟩
      · have hRk := Lib.hid ((bhN_yes nameB s k hlt hp).symm.trans HRR.out)
        have HC := fun w => Lib.hid (HK s[k] _ w rfl).out
        rw [hp] at HC
        clear hp HK HRR
        go_wp2_with (go_at_call 18; refine (HC _).out.mono ?_; rintro e w' ⟨rfl, rfl⟩)
        go_roundw
        case rel => exact ⟨k + 1, by go_num, trivial, by omega, hRk.out⟩
        case measure => simp [intOf]; omega
    · have hke : k = s.size := by omega
      have hRk := Lib.hid ((bhN_end nameB s).symm.trans (hke ▸ HRR.out))
      clear HRR
      subst hke
      go_wp2
      go_ret
      exact ⟨ret_int (by rw [hRk.out]), rfl⟩

set_option maxRecDepth 100000 in
set_option maxHeartbeats 1000000 in
theorem behind_value (s : ByteArray) (a : Int) (i : Nat) (w : World) (hs : s.size ≤ 1099511627776) (ha : (i : Int) = a) (hi : i ≤ s.size) :
    Calls Tryz.prog 17 #[.string s, .int .i64 a, .func (.func 30) #[] #[]] w fun e w' => e = .returned (.int .i64 (bhN valB s.data.toList i : Int)) ∧ w' = w := by
  subst ha
  have HK := fun c q w h => Lib.hid (inValue_any c q w h)
  obtain ⟨R, hR⟩ : ∃ R, bhN valB s.data.toList i = R := ⟨_, rfl⟩
  rw [hR]
  have HR := Lib.hid hR
  clear hR
  go_enter Tryz.func17, Tryz.ntmps17
  go_wp2
  go_loopw [1] (fun v wr => ∃ k : Nat, v = .int .i64 (k : Int) ∧ w = wr ∧ k ≤ s.size ∧ bhN valB s.data.toList k = R) (fun v _ => s.size - (intOf v).toNat)
  case atStart => exact ⟨i, rfl, rfl, hi, HR.out⟩
  case round =>
    obtain ⟨k, rfl, rfl, hk, hR⟩ := hrel
    have HRR := Lib.hid hR
    clear hR HR
    by_cases hlt : k < s.size
    · cases hp : valB s[k]
      · have hRk := Lib.hid ((bhN_no valB s k hlt hp).symm.trans HRR.out)
        have HC := fun w => Lib.hid (HK s[k] _ w rfl).out
        rw [hp] at HC
        clear hp HK HRR
        go_wp2_with (go_at_call 30; refine (HC _).out.mono ?_; rintro e w' ⟨rfl, rfl⟩)
        go_ret
        exact ⟨ret_int (by rw [hRk.out]), rfl⟩
      · have hRk := Lib.hid ((bhN_yes valB s k hlt hp).symm.trans HRR.out)
        have HC := fun w => Lib.hid (HK s[k] _ w rfl).out
        rw [hp] at HC
        clear hp HK HRR
        go_wp2_with (go_at_call 30; refine (HC _).out.mono ?_; rintro e w' ⟨rfl, rfl⟩)
        go_roundw
        case rel => exact ⟨k + 1, by go_num, trivial, by omega, hRk.out⟩
        case measure => simp [intOf]; omega
    · have hke : k = s.size := by omega
      have hRk := Lib.hid ((bhN_end valB s).symm.trans (hke ▸ HRR.out))
      clear HRR
      subst hke
      go_wp2
      go_ret
      exact ⟨ret_int (by rw [hRk.out]), rfl⟩

set_option maxRecDepth 100000 in
set_option maxHeartbeats 1000000 in
theorem behind_space (s : ByteArray) (a : Int) (i : Nat) (w : World) (hs : s.size ≤ 1099511627776) (ha : (i : Int) = a) (hi : i ≤ s.size) :
    Calls Tryz.prog 17 #[.string s, .int .i64 a, .func (.func 9) #[] #[]] w fun e w' => e = .returned (.int .i64 (bhN spB s.data.toList i : Int)) ∧ w' = w := by
  subst ha
  have HK := fun c q w h => Lib.hid (space_any c q w h)
  obtain ⟨R, hR⟩ : ∃ R, bhN spB s.data.toList i = R := ⟨_, rfl⟩
  rw [hR]
  have HR := Lib.hid hR
  clear hR
  go_enter Tryz.func17, Tryz.ntmps17
  go_wp2
  go_loopw [1] (fun v wr => ∃ k : Nat, v = .int .i64 (k : Int) ∧ w = wr ∧ k ≤ s.size ∧ bhN spB s.data.toList k = R) (fun v _ => s.size - (intOf v).toNat)
  case atStart => exact ⟨i, rfl, rfl, hi, HR.out⟩
  case round =>
    obtain ⟨k, rfl, rfl, hk, hR⟩ := hrel
    have HRR := Lib.hid hR
    clear hR HR
    by_cases hlt : k < s.size
    · cases hp : spB s[k]
      · have hRk := Lib.hid ((bhN_no spB s k hlt hp).symm.trans HRR.out)
        have HC := fun w => Lib.hid (HK s[k] _ w rfl).out
        rw [hp] at HC
        clear hp HK HRR
        go_wp2_with (go_at_call 9; refine (HC _).out.mono ?_; rintro e w' ⟨rfl, rfl⟩)
        go_ret
        exact ⟨ret_int (by rw [hRk.out]), rfl⟩
      · have hRk := Lib.hid ((bhN_yes spB s k hlt hp).symm.trans HRR.out)
        have HC := fun w => Lib.hid (HK s[k] _ w rfl).out
        rw [hp] at HC
        clear hp HK HRR
        go_wp2_with (go_at_call 9; refine (HC _).out.mono ?_; rintro e w' ⟨rfl, rfl⟩)
        go_roundw
        case rel => exact ⟨k + 1, by go_num, trivial, by omega, hRk.out⟩
        case measure => simp [intOf]; omega
    · have hke : k = s.size := by omega
      have hRk := Lib.hid ((bhN_end spB s).symm.trans (hke ▸ HRR.out))
      clear HRR
      subst hke
      go_wp2
      go_ret
      exact ⟨ret_int (by rw [hRk.out]), rfl⟩
end Go.Proofs.YtpdmnnfbdeiejaaGreatDoor
