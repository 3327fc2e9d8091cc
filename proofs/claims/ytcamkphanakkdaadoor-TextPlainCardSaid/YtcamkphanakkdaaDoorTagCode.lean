/-
  What package tag's functions answer, but for Read.
-/
import Derived.Test.YtcamkphanakkdaaDoorTagMarks
import Derived.Test.YtcamkphanakkdaaDoorTagTok
import Derived.Test.YtcamkphanakkdaaDoorTagRef
import Derived.Carry
import Derived.Test.YtcamkphanakkdaaDoorP7
import Derived.Test.YtcamkphanakkdaaDoorP6
namespace Go.Proofs.YtcamkphanakkdaaDoor
open Go.RowKit Go.Lib Go.WideMaps Go.Maps

/-- how many bytes stand ahead of the name at any place; 0: no tag begins -/
def begA (s : Txt) (a : Int) : Nat := if 0 ≤ a then begT (s.drop a.toNat) else 0
theorem begA_v (s : Txt) (a : Int) : begV s a = decide (begA s a ≠ 0) := by
  unfold begV begA
  by_cases h : 0 ≤ a
  · rw [if_pos h]; simp [h]
  · rw [if_neg h]; simp [h]
theorem begA_in (s : Txt) (k : Nat) : begA s (k : Int) = begT (s.drop k) := by
  unfold begA
  rw [if_pos (by omega), show ((k : Nat) : Int).toNat = k by omega]
theorem begA_le (s : Txt) (a : Int) : begA s a = 0 ∨ begA s a = 1 ∨ begA s a = 2 := by
  unfold begA
  by_cases h : 0 ≤ a
  · rw [if_pos h]
    by_cases hb : begT (s.drop a.toNat) ≠ 0
    · obtain ⟨c, t, -, ⟨-, h, -⟩ | ⟨-, h⟩⟩ := beg_cases _ hb
      · exact .inr (.inl h)
      · exact .inr (.inr h)
    · exact .inl (Decidable.not_not.1 hb)
  · rw [if_neg h]; exact .inl rfl

theorem mark_one (s : ByteArray) (i : Nat) (h : i ≤ s.size) : begS s (i : Int) (tmkS 1) = decide ((s.data.toList.drop i).head? = some 60) := by
  unfold begS
  rw [decide_eq_true (show 0 ≤ (i : Int) ∧ (i : Int) ≤ (s.size : Int) by omega), Bool.true_and, show ((i : Nat) : Int).toNat = i by omega]
  show [60].isPrefixOf _ = _
  cases s.data.toList.drop i with
  | nil => rfl
  | cons c t =>
    rw [lowL_cons, List.isPrefixOf_cons_cons, List.isPrefixOf_nil_left, Bool.and_true, show ((60 : UInt8) == lowB c) = (c == 60) from low_is 60 (by decide) (by decide) (by decide) c]
    rw [Bool.eq_iff_iff]; simp
theorem mark_two (s : ByteArray) (i : Nat) (h : i ≤ s.size) : begS s (i : Int) (tmkS 2) = decide ((s.data.toList.drop i).head? = some 60 ∧ (s.data.toList.drop (i + 1)).head? = some 47) := by
  unfold begS
  rw [decide_eq_true (show 0 ≤ (i : Int) ∧ (i : Int) ≤ (s.size : Int) by omega), Bool.true_and, show ((i : Nat) : Int).toNat = i by omega, ← List.drop_drop]
  show [60, 47].isPrefixOf _ = _
  cases s.data.toList.drop i with
  | nil => rfl
  | cons c t =>
    cases t with
    | nil =>
      rw [lowL_cons, List.isPrefixOf_cons_cons]
      simp [lowL]
    | cons d r =>
      rw [lowL_cons, List.isPrefixOf_cons_cons, lowL_cons, List.isPrefixOf_cons_cons, List.isPrefixOf_nil_left, Bool.and_true, show ((60 : UInt8) == lowB c) = (c == 60) from low_is 60 (by decide) (by decide) (by decide) c,
        show ((47 : UInt8) == lowB d) = (d == 47) from low_is 47 (by decide) (by decide) (by decide) d]
      rw [Bool.eq_iff_iff]; simp
theorem beg_out (s : ByteArray) (a : Int) (M : ByteArray) (h : ¬ (0 ≤ a ∧ a ≤ (s.size : Int))) : begS s a M = false := by
  unfold begS; rw [decide_eq_false h, Bool.false_and]
/-- a mark stands, and a letter behind it: the tag begins with that mark -/
theorem mark_beg (s : ByteArray) (a : Int) (m : Nat) (hm : m = 1 ∨ m = 2) :
    begS s a (tmkS m) = false ∧ begA s.data.toList a ≠ m ∨
    ∃ k : Nat, a = k ∧ begS s a (tmkS m) = true ∧ k + m ≤ s.size ∧ ((k + m = s.size ∧ begA s.data.toList a ≠ m) ∨ ∃ h : k + m < s.size, letB s[k + m] = decide (begA s.data.toList a = m)) := by
  by_cases hin : 0 ≤ a ∧ a ≤ (s.size : Int)
  · obtain ⟨k, rfl⟩ : ∃ k : Nat, a = k := ⟨a.toNat, by omega⟩
    have hk : k ≤ s.size := by omega
    rw [begA_in]
    have hd : ∀ j (h : j < s.size), s.data.toList.drop j = s[j] :: s.data.toList.drop (j + 1) := fun j h => drop_at s j h
    have hn : ∀ j, s.size ≤ j → s.data.toList.drop j = [] := fun j h => List.drop_eq_nil_of_le (by rw [← Lib.size_eq]; exact h)
    have l47 : letB 47 = false := by decide
    rcases hm with rfl | rfl
    · rw [mark_one s k hk]
      by_cases h60 : (s.data.toList.drop k).head? = some 60
      · have hlt : k < s.size := Nat.lt_of_not_le fun h => by rw [hn k h] at h60; simp at h60
        refine .inr ⟨k, rfl, decide_eq_true h60, by omega, ?_⟩
        by_cases hlt2 : k + 1 < s.size
        · refine .inr ⟨hlt2, ?_⟩
          rw [hd k hlt, List.head?_cons, Option.some.injEq] at h60
          rw [hd k hlt, hd (k + 1) hlt2, h60]
          unfold begT
          by_cases h47 : s[k + 1] = 47
          · rw [h47, l47]
            simp only [List.head?_cons, if_pos, List.drop_succ_cons, List.drop_zero]
            split <;> simp
          · simp only [List.head?_cons, if_pos, List.drop_succ_cons, List.drop_zero, Option.some.injEq, if_neg h47, Option.any_some]
            cases letB s[k + 1] <;> simp
        · refine .inl ⟨by omega, ?_⟩
          rw [beg_b _ (by rw [List.length_drop, ← Lib.size_eq]; omega)]; decide
      · exact .inl ⟨decide_eq_false h60, by rw [beg_a _ h60]; decide⟩
    · rw [mark_two s k hk]
      by_cases h6 : (s.data.toList.drop k).head? = some 60 ∧ (s.data.toList.drop (k + 1)).head? = some 47
      · have hlt : k + 1 < s.size := Nat.lt_of_not_le fun h => by have := h6.2; rw [hn _ h] at this; simp at this
        refine .inr ⟨k, rfl, decide_eq_true h6, by omega, ?_⟩
        obtain ⟨h60, h47⟩ := h6
        have hlt0 : k < s.size := by omega
        rw [hd k hlt0, List.head?_cons, Option.some.injEq] at h60
        rw [hd _ hlt, List.head?_cons, Option.some.injEq] at h47
        by_cases hlt2 : k + 2 < s.size
        · refine .inr ⟨hlt2, ?_⟩
          rw [hd k hlt0, hd (k + 1) hlt, hd (k + 1 + 1) hlt2, h60, h47]
          unfold begT
          simp only [List.head?_cons, if_pos, List.drop_succ_cons, List.drop_zero, Option.any_some]
          show letB s[k + 1 + 1] = _
          cases letB s[k + 1 + 1] <;> simp
        · refine .inl ⟨by omega, ?_⟩
          rw [hd k hlt0, hd (k + 1) hlt, hn (k + 1 + 1) (by omega), beg_e, if_neg (fun h => h.2.1 h47)]; decide
      · refine .inl ⟨decide_eq_false h6, fun hb => h6 ?_⟩
        obtain ⟨c, t, -, ⟨-, h, -⟩ | ⟨h, -⟩⟩ := beg_cases (s.data.toList.drop k) (by rw [hb]; decide)
        · rw [h] at hb; exact absurd hb (by decide)
        · rw [← List.drop_drop, h]; exact ⟨rfl, rfl⟩
  · refine .inl ⟨beg_out s a _ hin, ?_⟩
    unfold begA
    by_cases h0 : 0 ≤ a
    · rw [if_pos h0, List.drop_eq_nil_of_le (by rw [← Lib.size_eq]; omega), beg_nil]
      rcases hm with rfl | rfl <;> decide
    · rw [if_neg h0]
      rcases hm with rfl | rfl <;> decide
set_option maxRecDepth 100000 in
set_option maxHeartbeats 1000000 in
theorem marks_any (w : World) :
    Calls Tryd.prog 38 #[] w fun e w' => e = .returned (.map (some w.heap.size)) ∧ w'.ownsMap Tryd.prog 9 (plainElem Tryd.prog 3) w.heap.size 2 markD ∧ Below w.heap.size w w' := by
  have hmm := @run_makeMap Tryd.prog
  go_enter Tryd.func38, Tryd.ntmps38
  go_wp2_with (refine wpList_insert_marks _ _ _ rfl rfl _ _ _ _ _ 63 rfl rfl 9 3 Tryd.underlying9 Tryd.underlying3 Tryd.underlying63 w.heap.size rfl rfl rfl rfl rfl rfl (World.ownsMap_made _ _ _ _) ?_)
  intro w2 hown2 hg2
  go_wp2
  go_ret
  exact ⟨rfl, hown2, ((Below.refl _ w).alloc (Nat.le_refl _) _).grown hg2 (by simp) (fun j hj => by cases hj; exact Nat.le_refl _)⟩

set_option maxRecDepth 100000 in
set_option maxHeartbeats 1000000 in
theorem marked_any (s : ByteArray) (a : Int) (m : Nat) (hm : m = 1 ∨ m = 2) (w : World) (hs : s.size ≤ 1048576) (ha : -9223372036854775808 ≤ a ∧ a ≤ 9223372036854775807) :
    Calls Tryd.prog 24 #[.agg #[.string s, .int .i64 a], .string (tmkS m)] w fun e w' => e = .returned (.bool (decide (begA s.data.toList a = m))) ∧ Below w.heap.size w w' := by
  have HB := fun w => Lib.hid (begins s a (tmkS m) w (by omega) (by rw [tmkS_size hm]; omega) ha.1 ha.2)
  have HL := fun (c : UInt8) w => Lib.hid (letter (c.toNat : Int) w (by omega) (by have := c.toNat_lt; omega))
  have hsz := tmkS_size hm
  have hcase := mark_beg s a m hm
  obtain ⟨M, hM⟩ : ∃ M, tmkS m = M := ⟨_, rfl⟩
  rw [hM] at HB hsz hcase ⊢
  obtain ⟨D, hD⟩ : ∃ D : Bool, decide (begA s.data.toList a = m) = D := ⟨_, rfl⟩
  rw [hD]
  rcases hcase with ⟨h1, h2⟩ | ⟨k, rfl, h1, h2, h3⟩
  · rw [h1] at HB
    have HD : Hid (D = false) := Lib.hid (by rw [← hD]; exact decide_eq_false h2)
    rw [HD.out]
    clear h1 h2 hD hM hm hsz HD HL
    go_enter Tryd.func24, Tryd.ntmps24
    go_wp2_with (go_at_call 15; refine (HB _).out.mono ?_; rintro e w' ⟨rfl, n, rfl⟩)
    go_ret
    exact ⟨rfl, ((Below.refl _ w).alloc (Nat.le_refl _) _).trans (dr_below _ _ _)⟩
  · rw [h1] at HB
    have hMk : ((k : Int) + (M.size : Int)) = ((k + m : Nat) : Int) := by rw [hsz, Int.natCast_add]
    rcases h3 with ⟨h3, h4⟩ | ⟨h3, h4⟩
    · have HD : Hid (D = false) := Lib.hid (by rw [← hD]; exact decide_eq_false h4)
      rw [HD.out]
      have hMs : (k : Int) + (M.size : Int) = (s.size : Int) := by omega
      clear h1 h2 hD hM hm HD HL h4 hMk
      go_enter Tryd.func24, Tryd.ntmps24
      go_wp2_with (go_at_call 15; refine (HB _).out.mono ?_; rintro e w' ⟨rfl, n, rfl⟩)
      go_ret
      exact ⟨rfl, ((Below.refl _ w).alloc (Nat.le_refl _) _).trans (dr_below _ _ _)⟩
    · obtain ⟨K, hK⟩ : ∃ K, K = k + m := ⟨_, rfl⟩
      have hKs : K < s.size := by omega
      have HD : Hid (letterI ((s[K].toNat : Nat) : Int) = D) := Lib.hid (by subst hK; rw [← hD, ← h4]; rfl)
      have HL := fun w => HL s[K] w
      rw [HD.out] at HL
      rw [← hK] at hMk
      clear h1 h2 h3 hD hM hm HD h4 hK hsz
      go_enter Tryd.func24, Tryd.ntmps24
      go_wp2_with (fail)
      refine (HB _).out.mono ?_
      rintro e w' ⟨rfl, n, rfl⟩
      go_wp2_with (fail)
      refine (HL _).out.mono ?_
      rintro e w' ⟨rfl, rfl⟩
      go_wp2
      go_ret
      exact ⟨rfl, ((Below.refl _ w).alloc (Nat.le_refl _) _).trans (dr_below _ _ _)⟩

theorem below_grown {w w' : World} (h : Below w.heap.size w w') : w.grownBy w' none := ⟨h.os, h.tape, h.output, h.size, fun k hk _ => h.block k hk⟩
set_option maxRecDepth 100000 in
set_option maxHeartbeats 2000000 in
theorem kindOf_any (s : ByteArray) (a : Int) (w : World) (hs : s.size ≤ 1048576) (ha : -9223372036854775808 ≤ a ∧ a ≤ 9223372036854775807) :
    Calls Tryd.prog 23 #[.func (.func 24) #[.agg #[.string s, .int .i64 a]] #[]] w fun e w' => e = .returned (.tuple #[.int .i64 (begA s.data.toList a : Int), .int .i64 (begA s.data.toList a : Int), .bool (begV s.data.toList a)]) ∧ Below w.heap.size w w' := by
  have HM := fun m hm w => Lib.hid (marked_any s a m hm w hs ha)
  have hle := begA_le s.data.toList a
  rw [begA_v]
  obtain ⟨B, hB⟩ : ∃ B, begA s.data.toList a = B := ⟨_, rfl⟩
  rw [hB] at HM hle ⊢
  clear hB
  have HLE := Lib.hid hle
  clear hle
  go_enter Tryd.func23, Tryd.ntmps23
  go_wp2_with (first
    | (go_at_call 38; refine (marks_any _).mono ?_; rintro e w1 ⟨rfl, hown, b1⟩)
    | (at_range; refine wpList_range_own _ rfl _ 63 rfl 9 3 (string_keyed Tryd.underlying9) Tryd.underlying63 _ w.heap.size 2 markD rfl hown ?_; intro w0 hrg0 hg0 hs0))
  go_frame
  have HG0 := Lib.hid (b1.grown hg0 b1.size (fun j hj => by cases hj))
  have hb1 := b1.size
  clear hs0 hg0 b1
  go_loopw [5] (fun _ wr => ∃ (left : Lit → Bool) (cnt : Nat), wr.ranges Tryd.prog 9 (plainElem Tryd.prog 3) w.heap.size w1.heap.size 2 markD left cnt ∧ Below w.heap.size w wr ∧ Hid (∀ m, (m = 1 ∨ m = 2) → B = m → left (.string (tmkL m)) = true))
    (fun _ wr => wr.rangeLeft w.heap.size w1.heap.size)
  case atStart => exact ⟨_, _, hrg0, HG0.out, Lib.hid fun m hm _ => by
    rcases hm with rfl | rfl
    · exact markD_has.1
    · exact markD_has.2.1⟩
  case round =>
    obtain ⟨left, cnt, hrg, hbw, HLF⟩ := hrel
    have HBW := Lib.hid hbw
    have HRG := Lib.hid hrg
    clear hbw hrg
    go_wp2_with (at_next; refine wpList_next_marks _ rfl _ rfl 9 3 Tryd.underlying9 Tryd.underlying3 w.heap.size w1.heap.size 2 _ _ rfl HRG.out ?_ ?_)
    · intro hl
      have HZ : Hid (B = 0) := Lib.hid (by
        rcases HLE.out with h | h | h
        · exact h
        · have := HLF.out 1 (.inl rfl) h; rw [hl] at this; cases this
        · have := HLF.out 2 (.inr rfl) h; rw [hl] at this; cases this)
      clear hl
      go_wp2
      go_ret3
      exact ⟨by rw [HZ.out]; rfl, HBW.out⟩
    · intro m w2 cnt2 hm hlk hrg2 hlt hg2 hs2 hen
      have HB2 := Lib.hid (HBW.out.grown hg2 HBW.out.size (fun j hj => by cases hj; exact hb1))
      have HRG2 := Lib.hid hrg2
      have HC := fun w => HM m hm w
      have hsz := tmkS_size hm
      have HM1 := Lib.hid hm
      have HLK := Lib.hid hlk
      have HLT := Lib.hid hlt
      obtain ⟨M, hMM⟩ : ∃ M, tmkS m = M := ⟨_, rfl⟩
      rw [hMM] at HC hen hsz ⊢
      clear hrg2 hg2 hs2 hm hlk hlt hMM
      by_cases hBm : B = m
      · rw [decide_eq_true hBm] at HC
        have HBm := Lib.hid hBm
        clear hBm
        go_wp2_with (go_at_call 24; refine (HC _).out.mono ?_; rintro e w3 ⟨rfl, b3⟩)
        go_ret3
        refine ⟨?_, HB2.out.trans (b3.mono HB2.out.size)⟩
        have : decide (B ≠ 0) = true := decide_eq_true (by have := HBm.out; rcases HM1.out with h | h <;> omega)
        rw [this, HBm.out]
        rfl
      · rw [decide_eq_false hBm] at HC
        have HBm := Lib.hid hBm
        clear hBm
        go_wp2_with (go_at_call 24; refine (HC _).out.mono ?_; rintro e w3 ⟨rfl, b3⟩)
        have hrg3 := HRG2.out.kept (row := none) (below_grown b3) (by simp) (by simp)
        go_roundw
        case rel =>
          refine ⟨_, _, hrg3, HB2.out.trans (b3.mono HB2.out.size), Lib.hid fun j hj hBj => left_on (tmkL_ne HM1.out hj (fun e => HBm.out (hBj.trans e))) (HLF.out j hj hBj)⟩
        case measure => rw [hrg3.left_eq, HRG.out.left_eq]; exact HLT.out

set_option maxRecDepth 100000 in
set_option maxHeartbeats 1000000 in
theorem tagBegins_any (s : ByteArray) (a : Int) (w : World) (hs : s.size ≤ 1048576) (ha : -9223372036854775808 ≤ a ∧ a ≤ 9223372036854775807) (_h : LaidAt w) :
    Calls Tryd.prog 12 #[.string s, .int .i64 a] w fun e w' => e = .returned (.bool (begV s.data.toList a)) ∧ Below w.heap.size w w' := by
  have HK := fun w => Lib.hid (kindOf_any s a w hs ha)
  have hmf : ∀ (fn : Fn) (first cap : Array Value) (w : World), (Instr.makeFunc fn first cap).run Tryd.prog w = .ok (.func fn first cap) w := fun _ _ _ _ => rfl
  obtain ⟨B, hB⟩ : ∃ B, begA s.data.toList a = B := ⟨_, rfl⟩
  obtain ⟨V, hV⟩ : ∃ V, begV s.data.toList a = V := ⟨_, rfl⟩
  rw [hB, hV] at HK
  rw [hV]
  clear hB hV _h
  go_enter Tryd.func12, Tryd.ntmps12
  go_wp2_with (go_at_call 23; refine (HK _).out.mono ?_; rintro e w' ⟨rfl, b1⟩)
  go_ret
  exact ⟨rfl, b1⟩
end Go.Proofs.YtcamkphanakkdaaDoor
