/-
  What the document's answers of layer 9 are.
-/
import Derived.Test.YtcamkphanakkdaaGreatDoorTagTok
import Derived.Test.YtcamkphanakkdaaGreatDoorP7
import Derived.Test.YtcamkphanakkdaaGreatDoorP1
import Derived.Test.YtcamkphanakkdaaGreatDoorP4
namespace Go.Proofs.YtcamkphanakkdaaGreatDoor
open Go.RowKit Go.Lib

def fromV (s : Txt) (a : Int) : Int := if begV s a = true then a + (begT (s.drop a.toNat) : Int) else -1
theorem from_no (s : Txt) (a : Int) (h : begV s a = false) : fromV s a = -1 := by unfold fromV; rw [h]; rfl
theorem from_in (s : Txt) (k b : Nat) (h : begT (s.drop k) = b) : fromV s (k : Int) = if b = 0 then -1 else ((k + b : Nat) : Int) := by
  unfold fromV
  rw [beg_in, show ((k : Nat) : Int).toNat = k by omega, h]
  by_cases hb : b = 0
  · rw [if_pos hb, decide_eq_false (by simpa using hb)]; rfl
  · rw [if_neg hb, decide_eq_true hb, if_pos rfl, Int.natCast_add]
theorem beg_a (t : Txt) (h : t.head? ≠ some 60) : begT t = 0 := by unfold begT; rw [if_neg h]
theorem beg_b (t : Txt) (h : t.length = 1) : begT t = 0 := by
  match t, h with
  | [c], _ => unfold begT; simp
theorem beg_c (c d : UInt8) (t : Txt) (h : c = 60) (h1 : d ≠ 47) : begT (c :: d :: t) = if letB d = true then 1 else 0 := by
  subst h; unfold begT; simp [h1]
theorem beg_d (c d e : UInt8) (t : Txt) (h : c = 60) (h1 : d = 47) : begT (c :: d :: e :: t) = if letB e = true then 2 else 0 := by
  subst h; subst h1; unfold begT; simp
theorem beg_e (c d : UInt8) : begT [c, d] = if c = 60 ∧ d ≠ 47 ∧ letB d = true then 1 else 0 := by
  unfold begT
  by_cases h : c = 60
  · subst h
    by_cases h1 : d = 47
    · subst h1; simp
    · simp [h1]
  · simp [h]

set_option maxRecDepth 100000 in
set_option maxHeartbeats 2000000 in
theorem refFrom_any (s : ByteArray) (a : Int) (w : World) (hs : s.size ≤ 1048576) (ha : -9223372036854775808 ≤ a ∧ a ≤ 9223372036854775807) :
    Calls Tryz.prog 29 #[.string s, .int .i64 a] w fun e w' => e = .returned (.int .i64 (fromV s.data.toList a)) ∧ w' = w := by
  by_cases h0 : a < 0
  · have HV := Lib.hid (from_no s.data.toList a (by unfold begV; exact decide_eq_false (fun h => by omega)))
    rw [HV.out]
    go_enter Tryz.func29, Tryz.ntmps29
    go_wp2
    go_ret
    exact ⟨rfl, rfl⟩
  by_cases h1 : (s.size : Int) ≤ a
  · have HV := Lib.hid (from_no s.data.toList a (by
      unfold begV
      refine decide_eq_false (fun h => h.2 ?_)
      rw [List.drop_eq_nil_of_le (by rw [← Lib.size_eq]; omega)]; exact beg_nil))
    rw [HV.out]
    go_enter Tryz.func29, Tryz.ntmps29
    go_wp2
    go_ret
    exact ⟨rfl, rfl⟩
  obtain ⟨k, rfl⟩ : ∃ k : Nat, a = k := ⟨a.toNat, by omega⟩
  have hk : k < s.size := by omega
  have HL := fun (c : UInt8) w => Lib.hid (refLetter (c.toNat : Int) w (by omega) (by have := c.toNat_lt; omega))
  obtain ⟨V, hV⟩ : ∃ V, fromV s.data.toList (k : Int) = V := ⟨_, rfl⟩
  rw [hV]
  have HF := fun b h => Lib.hid (hV.symm.trans (from_in s.data.toList k b h))
  clear hV h0 h1 ha
  have hd := drop_at s k hk
  by_cases c60 : s[k] = 60
  · have b60 : (((s[k].toNat : Nat) : Int) != 60) = false := byte_ne _ 60 (by decide) c60
    by_cases hk1 : k + 1 < s.size
    · have hd1 := drop_at s (k + 1) hk1
      rw [hd1] at hd
      by_cases c47 : s[k + 1] = 47
      · have b47 : (((s[k + 1].toNat : Nat) : Int) == 47) = true := by rw [c47]; rfl
        by_cases hk2 : k + 2 < s.size
        · have hd2 := drop_at s (k + 2) hk2
          have hb := beg_d s[k] s[k + 1] s[k + 2] (s.data.toList.drop (k + 2 + 1)) c60 c47
          rw [show k + 1 + 1 = k + 2 from rfl] at hd
          rw [hd2] at hd
          rw [← hd] at hb
          have HL := fun w => HL s[k + 2] w
          cases hl : letB s[k + 2]
          · rw [hl] at hb
            have HV := HF 0 hb
            rw [show letterI ((s[k + 2].toNat : Nat) : Int) = false from hl] at HL
            rw [HV.out]
            clear HF HV hb hd hd1 hd2 c60 c47 hl
            go_enter Tryz.func29, Tryz.ntmps29
            go_wp2_with (go_at_call 30; refine (HL _).out.mono ?_; rintro e w' ⟨rfl, rfl⟩)
            go_ret
            exact ⟨rfl, rfl⟩
          · rw [hl] at hb
            have HV := HF 2 hb
            rw [show letterI ((s[k + 2].toNat : Nat) : Int) = true from hl] at HL
            rw [HV.out]
            clear HF HV hb hd hd1 hd2 c60 c47 hl
            go_enter Tryz.func29, Tryz.ntmps29
            go_wp2_with (go_at_call 30; refine (HL _).out.mono ?_; rintro e w' ⟨rfl, rfl⟩)
            go_ret
            exact ⟨ret_int (by first | rfl | omega | simp), rfl⟩
        · rw [List.drop_eq_nil_of_le (i := k + 1 + 1) (by rw [← Lib.size_eq]; omega)] at hd
          have hb := beg_e s[k] s[k + 1]
          rw [← hd, if_neg (fun h => h.2.1 c47)] at hb
          have HV := HF 0 hb
          rw [HV.out]
          have hk3 : s.size = k + 2 := by omega
          have h3 : (s.size : Int) = (k : Int) + 2 := by omega
          clear HF HV hb hd hd1 c60 c47 HL
          go_enter Tryz.func29, Tryz.ntmps29
          go_wp2
          go_ret
          exact ⟨rfl, rfl⟩
      · have b47 : (((s[k + 1].toNat : Nat) : Int) == 47) = false := by
          rw [beq_eq_false_iff_ne]; exact fun h => c47 (u8_eq _ 47 (by decide) h)
        have hb := beg_c s[k] s[k + 1] (s.data.toList.drop (k + 1 + 1)) c60 c47
        rw [← hd] at hb
        have HL := fun w => HL s[k + 1] w
        cases hl : letB s[k + 1]
        · rw [hl] at hb
          have HV := HF 0 hb
          rw [show letterI ((s[k + 1].toNat : Nat) : Int) = false from hl] at HL
          rw [HV.out]
          clear HF HV hb hd hd1 c60 c47 hl
          go_enter Tryz.func29, Tryz.ntmps29
          go_wp2_with (go_at_call 30; refine (HL _).out.mono ?_; rintro e w' ⟨rfl, rfl⟩)
          go_ret
          exact ⟨rfl, rfl⟩
        · rw [hl] at hb
          have HV := HF 1 hb
          rw [show letterI ((s[k + 1].toNat : Nat) : Int) = true from hl] at HL
          rw [HV.out]
          clear HF HV hb hd hd1 c60 c47 hl
          go_enter Tryz.func29, Tryz.ntmps29
          go_wp2_with (go_at_call 30; refine (HL _).out.mono ?_; rintro e w' ⟨rfl, rfl⟩)
          go_ret
          exact ⟨ret_int (by first | rfl | omega | simp), rfl⟩
    · have HV := HF 0 (beg_b _ (by rw [List.length_drop, ← Lib.size_eq]; omega))
      rw [HV.out]
      have h3 : (s.size : Int) = (k : Int) + 1 := by omega
      clear HF HV hd c60 HL
      go_enter Tryz.func29, Tryz.ntmps29
      go_wp2
      go_ret
      exact ⟨rfl, rfl⟩
  · have b60 : (((s[k].toNat : Nat) : Int) != 60) = true := by
      rw [bne_iff_ne]; exact fun h => c60 (u8_eq _ 60 (by decide) h)
    have HV := HF 0 (beg_a _ (by rw [hd, List.head?_cons]; exact fun e => c60 (Option.some.inj e)))
    rw [HV.out]
    clear HF HV hd c60 HL
    go_enter Tryz.func29, Tryz.ntmps29
    go_wp2
    go_ret
    exact ⟨rfl, rfl⟩

set_option maxRecDepth 100000 in
set_option maxHeartbeats 1000000 in
theorem refBegins9_any (s : ByteArray) (a : Int) (w : World) (hs : s.size ≤ 1048576) (ha : -9223372036854775808 ≤ a ∧ a ≤ 9223372036854775807) :
    Calls Tryz.prog 15 #[.string s, .int .i64 a] w fun e w' => e = .returned (.bool (begV s.data.toList a)) ∧ w' = w := by
  have HC := fun w => Lib.hid (refFrom_any s a w hs ha)
  have hv : begV s.data.toList a = decide (0 ≤ fromV s.data.toList a) := by
    unfold fromV
    cases h : begV s.data.toList a
    · rw [if_neg Bool.false_ne_true]; rfl
    · rw [if_pos rfl, eq_comm]
      have := (of_decide_eq_true h).1
      exact decide_eq_true (by omega)
  have HV := Lib.hid hv
  obtain ⟨V, hV⟩ : ∃ V, fromV s.data.toList a = V := ⟨_, rfl⟩
  rw [hV] at HC HV
  clear hv hV ha
  go_enter Tryz.func15, Tryz.ntmps15
  go_wp2_with (go_at_call 29; refine (HC _).out.mono ?_; rintro e w' ⟨rfl, rfl⟩)
  go_ret
  exact ⟨ret_bool HV.out.symm, rfl⟩
end Go.Proofs.YtcamkphanakkdaaGreatDoor
