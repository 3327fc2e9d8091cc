/-
  What package comment's functions answer that hold ends against what stands there.
-/
import Derived.Test.YtjcmpmijbngjnaaComRef
import Derived.Test.YtjcmpmijbngjnaaShelf
namespace Go.Proofs.Ytjcmpmijbngjnaa
open Go.RowKit Go.Lib

/-- how long the end is that a text begins with, of two -/
def stN (A B l : Txt) : Nat := if A.isPrefixOf l = true then A.length else if B.isPrefixOf l = true then B.length else 0

set_option maxRecDepth 100000 in
set_option maxHeartbeats 1000000 in
theorem standing_any (A B s : ByteArray) (w : World) :
    Calls Try.prog 28 #[.agg #[.string A, .string B], .string s] w fun e w' => e = .returned (.int .i64 (stN A.data.toList B.data.toList s.data.toList : Int)) ∧ Below w.heap.size w w' := by
  have HA := fun w => Lib.hid (Try.strings_HasPrefix s A w)
  have HB := fun w => Lib.hid (Try.strings_HasPrefix s B w)
  unfold Lib.hasPrefix at HA HB
  obtain ⟨S, hS⟩ : ∃ S, stN A.data.toList B.data.toList s.data.toList = S := ⟨_, rfl⟩
  rw [hS]
  unfold stN at hS
  rw [← Lib.size_eq, ← Lib.size_eq] at hS
  obtain ⟨p, hp⟩ : ∃ p, A.data.toList.isPrefixOf s.data.toList = p := ⟨_, rfl⟩
  obtain ⟨q, hq⟩ : ∃ q, B.data.toList.isPrefixOf s.data.toList = q := ⟨_, rfl⟩
  rw [hp, hq] at hS
  rw [hp] at HA
  rw [hq] at HB
  have HS := Lib.hid hS
  clear hS hp hq
  have i0 : ∀ w : World, (Instr.index 45 (.agg #[.string A, .string B]) (.int .i64 0)).run Try.prog w = .ok (.string A) w := fun _ => by kernel_rfl
  have i1 : ∀ w : World, (Instr.index 45 (.agg #[.string A, .string B]) (.int .i64 1)).run Try.prog w = .ok (.string B) w := fun _ => by kernel_rfl
  go_enter Try.func28, Try.ntmps28
  go_wp2
  go_loopw [8] (fun v wr => ∃ j : Nat, v = .int .i64 (j : Int) ∧ w.alloc (.cells #[.string A, .string B] 45) = wr ∧ j ≤ 2 ∧ (1 ≤ j → Hid (p = false)) ∧ (2 ≤ j → Hid (q = false))) (fun v _ => 2 - (intOf v).toNat)
  case atStart => exact ⟨0, rfl, rfl, by omega, by omega, by omega⟩
  case round =>
    obtain ⟨j, rfl, rfl, hj, h1, h2⟩ := hrel
    obtain rfl | rfl | rfl : j = 0 ∨ j = 1 ∨ j = 2 := by omega
    · clear h1 h2 hj
      cases p
      · go_wp2_with (go_at_call 39; refine (HA _).out.mono ?_; rintro e w' ⟨rfl, rfl⟩)
        go_roundw
        case rel => exact ⟨1, rfl, trivial, by omega, fun _ => Lib.hid trivial, by omega⟩
        case measure => simp [intOf]
      · go_wp2_with (go_at_call 39; refine (HA _).out.mono ?_; rintro e w' ⟨rfl, rfl⟩)
        go_ret
        exact ⟨ret_int (by rw [← HS.out]; rfl), (Below.refl _ w).alloc (Nat.le_refl _) _⟩
    · have H1 := h1 (by omega)
      clear h1 h2 hj
      cases q
      · go_wp2_with (go_at_call 39; refine (HB _).out.mono ?_; rintro e w' ⟨rfl, rfl⟩)
        go_roundw
        case rel => exact ⟨2, rfl, trivial, by omega, fun _ => H1, fun _ => Lib.hid trivial⟩
        case measure => simp [intOf]
      · go_wp2_with (go_at_call 39; refine (HB _).out.mono ?_; rintro e w' ⟨rfl, rfl⟩)
        go_ret
        exact ⟨ret_int (by rw [← HS.out, H1.out]; rfl), (Below.refl _ w).alloc (Nat.le_refl _) _⟩
    · have H1 := h1 (by omega)
      have H2 := h2 (by omega)
      clear h1 h2 hj
      go_wp2
      go_ret
      exact ⟨ret_int (by rw [← HS.out, H1.out, H2.out]; rfl), (Below.refl _ w).alloc (Nat.le_refl _) _⟩

/-- strings.CutSuffix -/
def cutSV (s p : ByteArray) : Value := .tuple #[.string (if p.data.toList.isSuffixOf s.data.toList = true then s.extract 0 (s.size - p.size) else s), .bool (p.data.toList.isSuffixOf s.data.toList)]
set_option maxRecDepth 100000 in
set_option maxHeartbeats 1000000 in
theorem liteCutSuffix_any (s p : ByteArray) (w : World) (hs : s.size ≤ 1099511627776) :
    Calls Try.prog 45 #[.string s, .string p] w fun e w' => e = .returned (cutSV s p) ∧ w' = w := by
  have HP := fun w => Lib.hid (Try.stringslite_HasSuffix s p w (by omega))
  unfold Lib.hasSuffix at HP
  unfold cutSV
  cases h : p.data.toList.isSuffixOf s.data.toList
  · rw [h] at HP
    clear h
    go_enter Try.func45, Try.ntmps45
    go_wp2_with (go_at_call 48; refine (HP _).out.mono ?_; rintro e w' ⟨rfl, rfl⟩)
    go_ret2
    exact ⟨rfl, rfl⟩
  · rw [h] at HP
    have hle : p.size ≤ s.size := by
      have := (List.isSuffixOf_iff_suffix.1 h).length_le
      rw [← Lib.size_eq, ← Lib.size_eq] at this; exact this
    clear h
    go_enter Try.func45, Try.ntmps45
    go_wp2_with (go_at_call 48; refine (HP _).out.mono ?_; rintro e w' ⟨rfl, rfl⟩)
    go_ret2
    exact ⟨rfl, rfl⟩
set_option maxRecDepth 100000 in
set_option maxHeartbeats 1000000 in
theorem cutSuffix_any (s p : ByteArray) (w : World) (hs : s.size ≤ 1099511627776) :
    Calls Try.prog 40 #[.string s, .string p] w fun e w' => e = .returned (cutSV s p) ∧ w' = w := by
  have HP := fun w => Lib.hid (liteCutSuffix_any s p w hs)
  unfold cutSV at *
  obtain ⟨B, hB⟩ : ∃ B, p.data.toList.isSuffixOf s.data.toList = B := ⟨_, rfl⟩
  rw [hB] at HP ⊢
  obtain ⟨X, hX⟩ : ∃ X, (if B = true then s.extract 0 (s.size - p.size) else s) = X := ⟨_, rfl⟩
  rw [hX] at HP ⊢
  clear hB hX
  go_enter Try.func40, Try.ntmps40
  go_wp2_with (go_at_call 45; refine (HP _).out.mono ?_; rintro e w' ⟨rfl, rfl⟩)
  go_ret2
  exact ⟨rfl, rfl⟩

theorem take_str (s : ByteArray) (n : Nat) : s.extract 0 n = ⟨(s.data.toList.take n).toArray⟩ := str_ext (by rw [take_text, List.toList_toArray])
set_option maxRecDepth 100000 in
set_option maxHeartbeats 1000000 in
theorem withoutCut_any (s : ByteArray) (w : World) (hs : s.size ≤ 1099511627776) :
    Calls Try.prog 29 #[.string s] w fun e w' => e = .returned (.string ⟨(tailC s.data.toList).toArray⟩) ∧ w' = w := by
  have H0 := fun w => Lib.hid (cutSuffix_any s ⟨#[45, 45, 33]⟩ w hs)
  have H1 := fun w => Lib.hid (cutSuffix_any s ⟨#[45, 45]⟩ w hs)
  have H2 := fun w => Lib.hid (cutSuffix_any s ⟨#[45]⟩ w hs)
  unfold cutSV at H0 H1 H2
  simp only [take_str, show (⟨#[45, 45, 33]⟩ : ByteArray).size = 3 from rfl, show (⟨#[45, 45]⟩ : ByteArray).size = 2 from rfl, show (⟨#[45]⟩ : ByteArray).size = 1 from rfl] at H0 H1 H2
  obtain ⟨T, hT⟩ : ∃ T : ByteArray, ⟨(tailC s.data.toList).toArray⟩ = T := ⟨_, rfl⟩
  rw [hT]
  unfold tailC at hT
  obtain ⟨p, hp⟩ : ∃ p, [45, 45, 33].isSuffixOf s.data.toList = p := ⟨_, rfl⟩
  obtain ⟨q, hq⟩ : ∃ q, [45, 45].isSuffixOf s.data.toList = q := ⟨_, rfl⟩
  obtain ⟨r, hr⟩ : ∃ r, [45].isSuffixOf s.data.toList = r := ⟨_, rfl⟩
  rw [hp, hq, hr] at hT
  rw [hp] at H0
  rw [hq] at H1
  rw [hr] at H2
  rw [← Lib.size_eq] at hT
  obtain ⟨X, hX⟩ : ∃ X : ByteArray, ⟨(s.data.toList.take (s.size - 3)).toArray⟩ = X := ⟨_, rfl⟩
  obtain ⟨Y, hY⟩ : ∃ X : ByteArray, ⟨(s.data.toList.take (s.size - 2)).toArray⟩ = X := ⟨_, rfl⟩
  obtain ⟨Z, hZ⟩ : ∃ X : ByteArray, ⟨(s.data.toList.take (s.size - 1)).toArray⟩ = X := ⟨_, rfl⟩
  rw [hX] at H0
  rw [hY] at H1
  rw [hZ] at H2
  have HT : Hid ((if p = true then X else if q = true then Y else if r = true then Z else s) = T) := Lib.hid (by
    rw [← hT, ← hX, ← hY, ← hZ]
    cases p <;> cases q <;> cases r <;> rfl)
  clear hT hp hq hr hX hY hZ
  have i0 : ∀ w : World, (Instr.index 62 (.agg #[.string ⟨#[45, 45, 33]⟩, .string ⟨#[45, 45]⟩, .string ⟨#[45]⟩]) (.int .i64 0)).run Try.prog w = .ok (.string ⟨#[45, 45, 33]⟩) w := fun _ => by kernel_rfl
  have i1 : ∀ w : World, (Instr.index 62 (.agg #[.string ⟨#[45, 45, 33]⟩, .string ⟨#[45, 45]⟩, .string ⟨#[45]⟩]) (.int .i64 1)).run Try.prog w = .ok (.string ⟨#[45, 45]⟩) w := fun _ => by kernel_rfl
  have i2 : ∀ w : World, (Instr.index 62 (.agg #[.string ⟨#[45, 45, 33]⟩, .string ⟨#[45, 45]⟩, .string ⟨#[45]⟩]) (.int .i64 2)).run Try.prog w = .ok (.string ⟨#[45]⟩) w := fun _ => by kernel_rfl
  go_enter Try.func29, Try.ntmps29
  go_wp2
  go_loopw [8] (fun v wr => ∃ j : Nat, v = .int .i64 (j : Int) ∧ w = wr ∧ j ≤ 3 ∧ (1 ≤ j → Hid (p = false)) ∧ (2 ≤ j → Hid (q = false)) ∧ (3 ≤ j → Hid (r = false))) (fun v _ => 3 - (intOf v).toNat)
  case atStart => exact ⟨0, rfl, rfl, by omega, by omega, by omega, by omega⟩
  case round =>
    obtain ⟨j, rfl, rfl, hj, h1, h2, h3⟩ := hrel
    obtain rfl | rfl | rfl | rfl : j = 0 ∨ j = 1 ∨ j = 2 ∨ j = 3 := by omega
    · clear h1 h2 h3 hj
      cases p
      · go_wp2_with (go_at_call 40; refine (H0 _).out.mono ?_; rintro e w' ⟨rfl, rfl⟩)
        go_roundw
        case rel => exact ⟨1, rfl, trivial, by omega, fun _ => Lib.hid trivial, by omega, by omega⟩
        case measure => simp [intOf]
      · go_wp2_with (go_at_call 40; refine (H0 _).out.mono ?_; rintro e w' ⟨rfl, rfl⟩)
        go_ret
        exact ⟨ret_str (by rw [← HT.out]; rfl), rfl⟩
    · have H1' := h1 (by omega)
      clear h1 h2 h3 hj
      cases q
      · go_wp2_with (go_at_call 40; refine (H1 _).out.mono ?_; rintro e w' ⟨rfl, rfl⟩)
        go_roundw
        case rel => exact ⟨2, rfl, trivial, by omega, fun _ => H1', fun _ => Lib.hid trivial, by omega⟩
        case measure => simp [intOf]
      · go_wp2_with (go_at_call 40; refine (H1 _).out.mono ?_; rintro e w' ⟨rfl, rfl⟩)
        go_ret
        exact ⟨ret_str (by rw [← HT.out, H1'.out]; rfl), rfl⟩
    · have H1' := h1 (by omega)
      have H2' := h2 (by omega)
      clear h1 h2 h3 hj
      cases r
      · go_wp2_with (go_at_call 40; refine (H2 _).out.mono ?_; rintro e w' ⟨rfl, rfl⟩)
        go_roundw
        case rel => exact ⟨3, rfl, trivial, by omega, fun _ => H1', fun _ => H2', fun _ => Lib.hid trivial⟩
        case measure => simp [intOf]
      · go_wp2_with (go_at_call 40; refine (H2 _).out.mono ?_; rintro e w' ⟨rfl, rfl⟩)
        go_ret
        exact ⟨ret_str (by rw [← HT.out, H1'.out, H2'.out]; rfl), rfl⟩
    · have H1' := h1 (by omega)
      have H2' := h2 (by omega)
      have H3' := h3 (by omega)
      clear h1 h2 h3 hj
      go_wp2
      go_ret
      exact ⟨ret_str (by rw [← HT.out, H1'.out, H2'.out, H3'.out]; rfl), rfl⟩
end Go.Proofs.Ytjcmpmijbngjnaa
