/-
  A text's last byte, and what follows of it for names: plain mathematics.
-/
import Derived.Test.YtdpgdcbclgdjaaaDoorNamFind
namespace Go.Proofs.YtdpgdcbclgdjaaaDoor
open Go.RowKit Go.Lib

theorem suffix_last (s : ByteArray) (j : Nat) (h : j < s.size) (hj : s.size = j + 1) (c : UInt8) : Lib.hasSuffix s.data.toList [c] = (s[j] == c) := by
  have hl : s.data.toList = s.data.toList.take j ++ [s[j]] := by
    conv => lhs; rw [← List.take_append_drop j s.data.toList]
    congr 1
    rw [drop_at s j h, List.drop_eq_nil_of_le (by rw [← Lib.size_eq]; omega)]
  rw [Bool.eq_iff_iff, Lib.hasSuffix, List.isSuffixOf_iff_suffix, beq_iff_eq]
  constructor
  · rintro ⟨z, hz⟩
    rw [hl] at hz
    have := List.append_inj_right' hz rfl
    simpa using this.symm
  · intro e
    exact ⟨_, by rw [hl, e]⟩
theorem last_ne (s : ByteArray) (j : Nat) (h : j < s.size) (hj : s.size = j + 1) : (((s[j].toNat : Nat) : Int) != 59) = !Lib.hasSuffix s.data.toList [59] := by
  rw [suffix_last s j h hj]
  by_cases e : s[j] = 59
  · rw [e]; rfl
  · have h1 : ((s[j].toNat : Nat) : Int) ≠ 59 := fun h => e (u8_eq _ 59 (by decide) h)
    rw [show (s[j] == 59) = false by simpa using e]
    simpa using h1
theorem last_eq (s : ByteArray) (j : Nat) (h : j < s.size) (hj : s.size = j + 1) : (((s[j].toNat : Nat) : Int) == 59) = Lib.hasSuffix s.data.toList [59] := by
  have := last_ne s j h hj
  rw [bne, Bool.not_inj_iff] at this
  exact this
theorem drop_semi (q : ByteArray) (j : Nat) (hj1 : j < q.size) (hj2 : q.size = j + 1) (h59 : Lib.hasSuffix q.data.toList [59] = true) : (q.extract 0 j).data.toList ++ [59] = q.data.toList := by
  rw [suffix_last q j hj1 hj2, beq_iff_eq] at h59
  rw [extract_data, List.drop_zero, Nat.sub_zero]
  conv => rhs; rw [← List.take_append_drop j q.data.toList]
  congr 1
  rw [drop_at q j hj1, h59]
  congr 1
  exact (List.drop_eq_nil_of_le (by rw [← Lib.size_eq]; omega)).symm
theorem look_size (name : ByteArray) (h : (nmLook name.data.toList).isSome = true) : 0 < name.size ∧ name.size ≤ 32 := by
  obtain ⟨r, hr⟩ := Option.isSome_iff_exists.1 h
  have hp := nm_row _ (look_row hr)
  have h1 := hp.ne
  have h2 := hp.len
  simp only at h1 h2
  rw [Lib.size_eq]
  exact ⟨List.length_pos_iff.2 h1, h2⟩

/-- a semicolon stands at a key's end alone -/
theorem semi_end {k l : Txt} {r : Txt} (hk : (k, r) ∈ nmRows) (he : k <+: l) (q : Txt) (hq : l = q ++ k.drop q.length) (h59 : Lib.hasSuffix q [59] = true) (hlen : q.length < k.length) (hp : q <+: k) : False := by
  obtain ⟨z, rfl⟩ := hp
  have h1 := nm_row _ hk
  rw [Lib.hasSuffix, List.isSuffixOf_iff_suffix] at h59
  obtain ⟨y, rfl⟩ := h59
  have hz : z ≠ [] := by rintro rfl; simp at hlen
  have h2 := h1.semi 59 (by
    simp only
    rw [List.dropLast_append_of_ne_nil hz]
    simp)
  exact h2 rfl
/-- P6.2: behind a name with a semicolon no longer name stands -/
theorem best_semi (q z : Txt) (h : (nmLook q).isSome = true) (h59 : Lib.hasSuffix q [59] = true) : bestL nmRows (q ++ z) = q.length := by
  obtain ⟨r, hr⟩ := Option.isSome_iff_exists.1 h
  have hrow := look_row hr
  refine best_eq _ _ _ ?_ (.inr ⟨_, hrow, List.prefix_append _ _, rfl⟩)
  intro x hx hp
  refine Nat.le_of_not_lt fun hlt => ?_
  have hqx : q <+: x.1 := List.prefix_of_prefix_length_le (List.prefix_append q z) hp (Nat.le_of_lt hlt)
  obtain ⟨y, hy⟩ := hqx
  exact semi_end (k := x.1) (l := x.1) (r := x.2) hx List.prefix_rfl q (by rw [← hy, List.drop_left]) h59 hlt ⟨y, hy⟩
theorem best_blank (q z : Txt) (h : (nmLook q).isSome = true) : bestL nmRows (q ++ 32 :: z) = q.length := by
  obtain ⟨r, hr⟩ := Option.isSome_iff_exists.1 h
  have hrow := look_row hr
  refine best_eq _ _ _ ?_ (.inr ⟨_, hrow, List.prefix_append _ _, rfl⟩)
  intro x hx hp
  refine Nat.le_of_not_lt fun hlt => ?_
  have hqx : q ++ [32] <+: x.1 := List.prefix_of_prefix_length_le (show q ++ [32] <+: q ++ 32 :: z from ⟨z, by simp⟩) hp (by simp; omega)
  have h1 := (nm_row x hx).key 32 (hqx.subset (by simp))
  exact h1.1 rfl
theorem best_more (q z : Txt) (h : (nmLook q).isSome = true) : q.length ≤ bestL nmRows (q ++ z) := by
  obtain ⟨r, hr⟩ := Option.isSome_iff_exists.1 h
  exact best_ge _ _ _ (look_row hr) (List.prefix_append _ _)
/-- with a bound as great as any key, and what stands ahead taken away -/
theorem best_bound (W : Txt) : bestL nmRows (W.take 32) = bestL nmRows W := by
  refine best_eq _ _ _ (fun x hx hp => best_ge _ _ x hx (hp.trans (List.take_prefix _ _))) ?_
  rcases best_mem nmRows W with h | ⟨x, hx, hp, e⟩
  · exact .inl h
  · refine .inr ⟨x, hx, ?_, e⟩
    exact List.prefix_of_prefix_length_le hp (List.take_prefix _ _) (by
      rw [List.length_take]
      have := (nm_row x hx).len
      have := hp.length_le
      omega)
theorem win_ahead (a q : Txt) : winL (a ++ q) (a.length : Int) 32 = q.take 32 := by
  unfold winL
  rw [if_neg (by omega), show ((a.length : Nat) : Int).toNat = a.length by omega, List.drop_left]
  rfl

/-- P6.3: a short name, and itself with a semicolon -/
theorem look_semi (q : Txt) (r : Txt) (h : nmLook q = some r) (h59 : Lib.hasSuffix q [59] = false) : nmLook (q ++ [59]) = some r := by
  have hrow := look_row h
  rcases nm_short _ hrow with h1 | h1
  · exfalso
    simp only at h1
    have : Lib.hasSuffix q [59] = true := by
      rw [Lib.hasSuffix, List.isSuffixOf_iff_suffix]
      exact ⟨_, by rw [← h1]; exact List.take_append_drop _ _⟩
    rw [this] at h59
    exact absurd h59 (by decide)
  · exact look_of h1
theorem look_without (q : Txt) (r : Txt) (h : nmLook (q ++ [59]) = some r) : nmLook q = none ∨ nmLook q = some r := by
  cases hq : nmLook q with
  | none => exact .inl rfl
  | some x =>
    right
    have hrow := nm_row _ (look_row h)
    have h59 : Lib.hasSuffix q [59] = false := by
      rw [Bool.eq_false_iff]
      intro e
      rw [Lib.hasSuffix, List.isSuffixOf_iff_suffix] at e
      obtain ⟨y, rfl⟩ := e
      exact hrow.semi 59 (by simp) rfl
    have := look_semi q x hq h59
    rw [h] at this
    exact this.symm
/-- P6.3: how long a name's text is -/
theorem text_len (q : Txt) (h : (nmLook q).isSome = true) : 0 < (textL (aOf (nmLook q)) (bOf (nmLook q))).length ∧ (textL (aOf (nmLook q)) (bOf (nmLook q))).length ≤ 2 * q.length + 2 ∧ (textL (aOf (nmLook q)) (bOf (nmLook q))).length ≤ 8 := by
  obtain ⟨r, hr⟩ := Option.isSome_iff_exists.1 h
  have hrow := nm_row _ (look_row hr)
  have ha := enc_len ((aOf (nmLook q) : Nat) : Int)
  have hb := enc_len ((bOf (nmLook q) : Nat) : Int)
  have hne := List.length_pos_iff.2 hrow.ne
  simp only at hne
  have hb2 : bOf (nmLook q) = 0 ∨ 3 ≤ q.length := by
    rw [hr]
    rcases hrow.form with ⟨-, h2⟩ | ⟨-, -, h2⟩
    · left; simp only at h2; show hexN (secL r) = 0; rw [h2]; rfl
    · right; exact h2
  unfold textL
  rw [List.length_append]
  by_cases e : bOf (nmLook q) = 0
  · rw [if_pos e]; simp only [List.length_nil]; omega
  · rw [if_neg e]; omega
end Go.Proofs.YtdpgdcbclgdjaaaDoor
