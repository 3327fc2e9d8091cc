/-
  What package utf's beginning and broken answer, for every text.
-/
import Derived.Test.YtafghfljbelgdaaUtfCode
import Derived.Deep.QuietTactic
import Derived.BigQuiet
import Derived.LoopN
namespace Go.Proofs.Ytafghfljbelgdaa
open Go.RowKit Go.Lib

theorem beg_cast {n m : Nat} (h : n = m) : Ending.returned (.int .i64 (m : Int)) = .returned (.int .i64 (n : Int)) := by rw [h]

set_option maxRecDepth 100000 in
set_option maxHeartbeats 400000 in
theorem beginning_three (s : ByteArray) (w : World) (hs : 1 < s.size) (hm : s.size ≤ maxLen) (h0 : annN (s[0]'(by omega)).toNat = 3) :
    Calls Try.prog 22 #[.string s] w fun e w' => e = .returned (.int .i64 (begL s.data.toList : Nat)) ∧ ∃ n, w' = w.drewN n := by
  have H0 := Lib.hid h0
  have hb := (s[0]'(by omega)).toNat_lt
  have hs0 : 0 < s.size := by omega
  have L3 := Lib.hid (least3 _ _ (byte_lt s[0]) (byte_lt s[1]))
  unfold maxLen at hm
  clear h0
  go_enter Try.func22, Try.ntmps22
  go_wp2_with (go_at_call 30; refine (announced _ _ hb).mono ?_; rintro e w' ⟨rfl, rfl⟩; rw [H0.out])
  go_quiet (fail)
  go_wp2
  refine wp_loop_rounds 3 ?_
  rw [rounds_succ]
  go_wp2_with (go_at_call 31; rw [L3.out]; refine (Try.utf8_RuneLen _ _).mono ?_; rintro e w' ⟨rfl, rfl⟩)
  · go_ret
    exact ⟨beg_cast (beg3_far s hs H0.out (no3 ‹_›)), _, rfl⟩
  · rw [rounds_succ]
    go_wp2
    go_ret
    exact ⟨beg_cast (beg3_yes s hs H0.out ‹_› (yes3 ‹_›)), _, rfl⟩
  · go_ret
    exact ⟨beg_cast (beg3_no s hs H0.out ‹_›), _, rfl⟩

set_option maxRecDepth 100000 in
set_option maxHeartbeats 400000 in
theorem beginning_four (s : ByteArray) (w : World) (hs : 2 < s.size) (hm : s.size ≤ maxLen) (h0 : annN (s[0]'(by omega)).toNat = 4) :
    Calls Try.prog 22 #[.string s] w fun e w' => e = .returned (.int .i64 (begL s.data.toList : Nat)) ∧ ∃ n, w' = w.drewN n := by
  have H0 := Lib.hid h0
  have hb := (s[0]'(by omega)).toNat_lt
  have hs0 : 0 < s.size := by omega
  have hs1 : 1 < s.size := by omega
  have L4 := Lib.hid (least4 _ _ (byte_lt s[0]) (byte_lt s[1]))
  have L4b := Lib.hid (least4b _ _ _ (byte_lt s[0]) (byte_lt s[1]) (byte_lt s[2]))
  have N4 := Lib.hid (n4b s[0].toNat s[1].toNat s[2].toNat)
  unfold maxLen at hm
  clear h0
  go_enter Try.func22, Try.ntmps22
  go_wp2_with (go_at_call 30; refine (announced _ _ hb).mono ?_; rintro e w' ⟨rfl, rfl⟩; rw [H0.out])
  go_quiet (fail)
  go_wp2
  refine wp_loop_rounds 4 ?_
  rw [rounds_succ]
  go_wp2_with (go_at_call 31; rw [L4.out]; refine (Try.utf8_RuneLen _ _).mono ?_; rintro e w' ⟨rfl, rfl⟩)
  · go_ret
    exact ⟨beg_cast (beg4_far s hs1 H0.out (no4 ‹_›)), _, rfl⟩
  · rw [rounds_succ]
    have hy : (runeLen ((s[0].toNat : Int) % 8 * 262144 + (s[1].toNat : Int) % 64 * 4096) != 4) = false := by assumption
    have hx := N4.out hy
    have HY := Lib.hid (yes4 hy)
    go_wp2_with (go_at_call 31; rw [L4b.out]; refine (Try.utf8_RuneLen _ _).mono ?_; rintro e w' ⟨rfl, rfl⟩)
    · rw [rounds_succ]
      go_wp2
      go_ret
      exact ⟨beg_cast (beg4_three s hs H0.out ‹_› HY.out ‹_›), _, rfl⟩
    · go_ret
      exact ⟨beg_cast (beg4_two s hs1 H0.out ‹_› HY.out (.inr ⟨hs, ‹_›⟩)), _, rfl⟩
  · go_ret
    exact ⟨beg_cast (beg4_no s hs1 H0.out ‹_›), _, rfl⟩

set_option maxRecDepth 100000 in
set_option maxHeartbeats 400000 in
theorem beginning_four2 (s : ByteArray) (w : World) (hs1 : 1 < s.size) (hs2 : s.size ≤ 2) (h0 : annN (s[0]'(by omega)).toNat = 4) :
    Calls Try.prog 22 #[.string s] w fun e w' => e = .returned (.int .i64 (begL s.data.toList : Nat)) ∧ ∃ n, w' = w.drewN n := by
  have H0 := Lib.hid h0
  have HS : Hid (s.size = 2) := Lib.hid (by omega)
  have hb := (s[0]'(by omega)).toNat_lt
  have hs0 : 0 < s.size := by omega
  have L4 := Lib.hid (least4 _ _ (byte_lt s[0]) (byte_lt s[1]))
  clear h0
  go_enter Try.func22, Try.ntmps22
  go_wp2_with (go_at_call 30; refine (announced _ _ hb).mono ?_; rintro e w' ⟨rfl, rfl⟩; rw [H0.out])
  go_quiet (fail)
  go_wp2
  refine wp_loop_rounds 4 ?_
  rw [rounds_succ]
  go_wp2_with (go_at_call 31; rw [L4.out]; refine (Try.utf8_RuneLen _ _).mono ?_; rintro e w' ⟨rfl, rfl⟩)
  · go_ret
    exact ⟨beg_cast (beg4_far s hs1 H0.out (no4 ‹_›)), _, rfl⟩
  · rw [rounds_succ]
    go_wp2
    go_ret
    exact ⟨beg_cast (beg4_two s hs1 H0.out ‹_› (yes4 ‹_›) (.inl HS.out)), _, rfl⟩
  · go_ret
    exact ⟨beg_cast (beg4_no s hs1 H0.out ‹_›), _, rfl⟩

set_option maxRecDepth 100000 in
set_option maxHeartbeats 400000 in
theorem beginning_few (s : ByteArray) (w : World) (hs : 0 < s.size) (k : Nat) (hk : k = 1 ∨ k = 2) (h0 : annN (s[0]'hs).toNat = k) :
    Calls Try.prog 22 #[.string s] w fun e w' => e = .returned (.int .i64 (begL s.data.toList : Nat)) ∧ ∃ n, w' = w.drewN n := by
  have H0 := Lib.hid h0
  have B := Lib.hid (beg_short s hs (by omega))
  have hb := (s[0]'hs).toNat_lt
  clear h0
  rcases hk with rfl | rfl
  all_goals
    go_enter Try.func22, Try.ntmps22
    go_wp2_with (go_at_call 30; refine (announced _ _ hb).mono ?_; rintro e w' ⟨rfl, rfl⟩; rw [H0.out])
    go_quiet (fail)
    go_wp2
    refine wp_loop_rounds 1 ?_
    rw [rounds_succ]
    go_wp2
    go_ret
    exact ⟨beg_cast B.out, _, rfl⟩

set_option maxRecDepth 100000 in
set_option maxHeartbeats 400000 in
theorem beginning_alone (s : ByteArray) (w : World) (hs0 : 0 < s.size) (hs1 : s.size ≤ 1) (k : Nat) (hk : k = 3 ∨ k = 4) (h0 : annN (s[0]'(by omega)).toNat = k) :
    Calls Try.prog 22 #[.string s] w fun e w' => e = .returned (.int .i64 (begL s.data.toList : Nat)) ∧ ∃ n, w' = w.drewN n := by
  have H0 := Lib.hid h0
  have B := Lib.hid (beg_one s (by omega))
  have hb := (s[0]'(by omega)).toNat_lt
  clear h0
  rcases hk with rfl | rfl
  all_goals
    go_enter Try.func22, Try.ntmps22
    go_wp2_with (go_at_call 30; refine (announced _ _ hb).mono ?_; rintro e w' ⟨rfl, rfl⟩; rw [H0.out])
    go_quiet (fail)
    go_wp2
    refine wp_loop_rounds 1 ?_
    rw [rounds_succ]
    go_wp2
    go_ret
    exact ⟨beg_cast B.out, _, rfl⟩

/-- beginning: how long the longest beginning is -/
theorem beginning_any (s : ByteArray) (w : World) (hs : 0 < s.size) (hm : s.size ≤ maxLen) :
    Calls Try.prog 22 #[.string s] w fun e w' => e = .returned (.int .i64 (begL s.data.toList : Nat)) ∧ ∃ n, w' = w.drewN n := by
  have ha : annN (s[0]'hs).toNat = 1 ∨ annN (s[0]'hs).toNat = 2 ∨ annN (s[0]'hs).toNat = 3 ∨ annN (s[0]'hs).toNat = 4 := by
    unfold annN; repeat' split
    all_goals simp
  by_cases h1 : s.size = 1
  · rcases ha with h | h | h | h
    · exact beginning_few s w hs 1 (.inl rfl) h
    · exact beginning_few s w hs 2 (.inr rfl) h
    · exact beginning_alone s w hs (by omega) 3 (.inl rfl) h
    · exact beginning_alone s w hs (by omega) 4 (.inr rfl) h
  · rcases ha with h | h | h | h
    · exact beginning_few s w hs 1 (.inl rfl) h
    · exact beginning_few s w hs 2 (.inr rfl) h
    · exact beginning_three s w (by omega) hm h
    · by_cases h2 : s.size = 2
      · exact beginning_four2 s w (by omega) (by omega) h
      · exact beginning_four s w (by omega) hm h

theorem badL_lit : (ByteArray.mk #[239, 191, 189]).data.toList = badL := rfl
set_option maxRecDepth 100000 in
theorem broken_no (s : ByteArray) (i : Nat) (r : Int) (w : World) (hr : r ≠ 65533) :
    Calls Try.prog 20 #[.string s, .int .i64 (i : Int), .int .i32 r] w fun e w' => e = .returned (.bool false) ∧ w = w' := by
  have h : (r == 65533) = false := by simpa using hr
  clear hr
  go_enter Try.func20, Try.ntmps20
  go_wp2
  go_ret
  exact ⟨rfl, rfl⟩
set_option maxRecDepth 100000 in
theorem broken_yes (s : ByteArray) (i : Nat) (r : Int) (w : World) (hr : r = 65533) (hi : i ≤ s.size) :
    Calls Try.prog 20 #[.string s, .int .i64 (i : Int), .int .i32 r] w fun e w' => e = .returned (.bool (!hasPrefix (s.data.toList.drop i) badL)) ∧ w = w' := by
  subst hr
  go_enter Try.func20, Try.ntmps20
  go_wp2_with (go_at_call 29; refine (Try.strings_HasPrefix _ _ _).mono ?_; rintro e w' ⟨rfl, rfl⟩)
  go_ret
  exact ⟨ret_bool (by rw [List.take_of_length_le (by rw [List.length_drop, ← size_eq]; exact Nat.le_refl _)]; rfl), rfl⟩

end Go.Proofs.Ytafghfljbelgdaa
