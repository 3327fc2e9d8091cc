/-
  What package comment's Begins and Read answer.
-/
import Derived.Test.YtcamkphanakkdaaGreatDoorComMark
import Derived.Test.YtcamkphanakkdaaGreatDoorP1
import Derived.Test.YtcamkphanakkdaaGreatDoorP4
namespace Go.Proofs.YtcamkphanakkdaaGreatDoor
open Go.RowKit Go.Lib

/-- the package reads no variable -/
def ComLaid (_ : World) : Prop := True
theorem ComLaid.below {w w' : World} (_ : ComLaid w) (_ : Below w.heap.size w w') : ComLaid w' := trivial
theorem laid_here (w : World) : ComLaid w := trivial

/-- what has no small letter stands in whatever letters -/
theorem pre_low : ∀ (p l : Txt), (∀ c ∈ p, (c.toNat : Int) < 97) → (∀ c ∈ p, ¬ (65 ≤ (c.toNat : Int) ∧ (c.toNat : Int) ≤ 90)) → p.isPrefixOf (lowL l) = p.isPrefixOf l
  | [], l, _, _ => by simp
  | c :: p, [], _, _ => rfl
  | c :: p, d :: l, h, h' => by
    rw [lowL_cons, List.isPrefixOf_cons_cons, List.isPrefixOf_cons_cons, pre_low p l (fun x hx => h x (.tail _ hx)) (fun x hx => h' x (.tail _ hx))]
    congr 1
    have h1 := h c (.head _)
    have h2 := h' c (.head _)
    have h3 := lowB_int d
    unfold lowI at h3
    rw [Bool.eq_iff_iff, beq_iff_eq, beq_iff_eq, ← UInt8.toNat_inj, ← UInt8.toNat_inj]
    split at h3 <;> omega
theorem low_two (c : UInt8) (l : Txt) (hc : (c.toNat : Int) < 65) : [60, c].isPrefixOf (lowL l) = [60, c].isPrefixOf l := by
  refine pre_low _ _ ?_ ?_
  · intro x hx
    simp only [List.mem_cons, List.not_mem_nil, or_false] at hx
    rcases hx with rfl | rfl
    · decide
    · omega
  · intro x hx
    simp only [List.mem_cons, List.not_mem_nil, or_false] at hx
    rcases hx with rfl | rfl
    · decide
    · omega
theorem low_four (l : Txt) : [60, 33, 45, 45].isPrefixOf (lowL l) = [60, 33, 45, 45].isPrefixOf l := pre_low _ _ (by decide) (by decide)
/-- what stands behind a stroke, and makes it no tag -/
def noT : Txt → Bool
  | [] => false
  | c :: _ => !(c == 62) && !(letterI (c.toNat : Int))
theorem beg_told (l : Txt) : begC l = if [60, 33].isPrefixOf l = true then !(([60, 33] ++ dtL).isPrefixOf (lowL l)) else if [60, 47].isPrefixOf l = true then noT (l.drop 2) else [60, 63].isPrefixOf l := by
  match l with
  | [] => rfl
  | [c] =>
    have h : ∀ x : UInt8, [60, x].isPrefixOf [c] = false := fun x => by simp [List.isPrefixOf]
    rw [begC_short [c] (by simp), h, h, h]; rfl
  | c :: d :: t =>
    rw [begC_two]
    have hp : ∀ x : UInt8, [60, x].isPrefixOf (c :: d :: t) = (c == 60 && d == x) := fun x => by
      rw [List.isPrefixOf_cons_cons, List.isPrefixOf_cons_cons]
      simp [BEq.comm]
    rw [hp, hp, hp]
    cases hc : c == 60
    · rfl
    · have h60 : c = 60 := beq_iff_eq.1 hc
      subst h60
      simp only [Bool.true_and]
      by_cases h1 : d = 33
      · subst h1
        rw [if_pos rfl, lowL_cons, lowL_cons, List.cons_append, List.cons_append, List.nil_append, List.isPrefixOf_cons_cons, List.isPrefixOf_cons_cons, show lowB 60 = 60 by decide, show lowB 33 = 33 by decide]; rfl
      · rw [if_neg h1, show (d == 33) = false from beq_eq_false_iff_ne.2 h1, if_neg Bool.false_ne_true]
        by_cases h2 : d = 47
        · subst h2
          cases t <;> rfl
        · rw [if_neg h2, show (d == 47) = false from beq_eq_false_iff_ne.2 h2, if_neg Bool.false_ne_true]
          by_cases h3 : d = 63
          · subst h3; rfl
          · rw [if_neg h3, show (d == 63) = false from beq_eq_false_iff_ne.2 h3]

set_option maxRecDepth 100000 in
set_option maxHeartbeats 1000000 in
theorem noTag_any (s : ByteArray) (w : World) (hs : s.size ≤ 1048576) :
    Calls Tryz.prog 49 #[.string s] w fun e w' => e = .returned (.bool (noT s.data.toList)) ∧ w' = w := by
  by_cases h0 : s.size = 0
  · have hl : s.data.toList = [] := by rw [← List.length_eq_zero_iff, ← Lib.size_eq]; exact h0
    obtain rfl : s = ⟨#[]⟩ := str_ext (by rw [hl])
    clear h0 hl hs
    go_enter Tryz.func49, Tryz.ntmps49
    go_wp2
    go_ret
    exact ⟨rfl, rfl⟩
  · have hlt : 0 < s.size := by omega
    have hd : s.data.toList = s[0] :: s.data.toList.drop 1 := by
      have := drop_at s 0 hlt
      rw [List.drop_zero] at this; exact this
    have HL := fun w => Lib.hid (letter ((s[0].toNat : Nat) : Int) w (by omega) (by have := s[0].toNat_lt; omega))
    have hne : ¬ s.toList = [] := fun h => by
      have := str_beq s ⟨#[]⟩
      rw [h, hd] at this
      simp at this
    have hem : s.toList.isEmpty = false := by
      cases h : s.toList with
      | nil => exact absurd h hne
      | cons a l => rfl
    rw [hd, show noT (s[0] :: s.data.toList.drop 1) = (!(s[0] == 62) && !(letterI ((s[0].toNat : Nat) : Int))) from rfl]
    by_cases c62 : s[0] = 62
    · have b62 : (((s[0].toNat : Nat) : Int) != 62) = false := by rw [c62]; rfl
      rw [show (s[0] == 62) = true from beq_iff_eq.2 c62]
      clear c62 hd HL
      go_enter Tryz.func49, Tryz.ntmps49
      go_wp2
      go_ret
      exact ⟨rfl, rfl⟩
    · have b62 : (((s[0].toNat : Nat) : Int) != 62) = true := by
        rw [bne_iff_ne]; exact fun h => c62 (u8_eq _ 62 (by decide) h)
      rw [show (s[0] == 62) = false from beq_eq_false_iff_ne.2 c62]
      obtain ⟨L, hL⟩ : ∃ L, letterI ((s[0].toNat : Nat) : Int) = L := ⟨_, rfl⟩
      rw [hL] at HL ⊢
      clear c62 hd hL
      go_enter Tryz.func49, Tryz.ntmps49
      go_wp2_with (go_at_call 69; refine (HL _).out.mono ?_; rintro e w1 ⟨rfl, rfl⟩)
      go_ret
      exact ⟨ret_bool (by simp), rfl⟩

theorem begs_at (s low : ByteArray) (k : Nat) (h : k ≤ s.size) : begS s (k : Int) low = low.data.toList.isPrefixOf (lowL (s.data.toList.drop k)) := by
  unfold begS
  rw [decide_eq_true (show 0 ≤ (k : Int) ∧ (k : Int) ≤ (s.size : Int) by omega), Bool.true_and, show ((k : Nat) : Int).toNat = k by omega]
theorem begs_out (s low : ByteArray) (a : Int) (h : ¬ (0 ≤ a ∧ a ≤ (s.size : Int))) : begS s a low = false := by
  unfold begS; rw [decide_eq_false h, Bool.false_and]

set_option maxRecDepth 100000 in
set_option maxHeartbeats 1000000 in
/-- P10.1 -/
theorem comBegins_any (s : ByteArray) (a : Int) (w : World) (hs : s.size ≤ 1048576) (ha : -9223372036854775808 ≤ a ∧ a ≤ 9223372036854775807) (_h : ComLaid w) :
    Calls Tryz.prog 26 #[.string s, .int .i64 a] w fun e w' => e = .returned (.bool (cbegV s.data.toList a)) ∧ Below w.heap.size w w' := by
  have HB := fun low hl w => Lib.hid (begins s a low w (by omega) hl ha.1 ha.2)
  have HB1 := fun w => HB ⟨#[60, 33]⟩ (by decide) w
  have HB2 := fun w => HB ⟨#[60, 33, 100, 111, 99, 116, 121, 112, 101]⟩ (by decide) w
  have HB3 := fun w => HB ⟨#[60, 47]⟩ (by decide) w
  have HB4 := fun w => HB ⟨#[60, 63]⟩ (by decide) w
  clear HB
  by_cases hin : 0 ≤ a ∧ a ≤ (s.size : Int)
  · obtain ⟨k, rfl⟩ : ∃ k : Nat, a = k := ⟨a.toNat, by omega⟩
    have hk : k ≤ s.size := by omega
    have hkk : k ≤ 1048576 := by omega
    rw [begs_at s _ k hk, show (⟨#[60, 33]⟩ : ByteArray).data.toList = [60, 33] from rfl, low_two 33 _ (by decide)] at HB1
    rw [begs_at s _ k hk, show (⟨#[60, 33, 100, 111, 99, 116, 121, 112, 101]⟩ : ByteArray).data.toList = [60, 33] ++ dtL from rfl] at HB2
    rw [begs_at s _ k hk, show (⟨#[60, 47]⟩ : ByteArray).data.toList = [60, 47] from rfl, low_two 47 _ (by decide)] at HB3
    rw [begs_at s _ k hk, show (⟨#[60, 63]⟩ : ByteArray).data.toList = [60, 63] from rfl, low_two 63 _ (by decide)] at HB4
    rw [cbeg_in, beg_told]
    cases h1 : [60, 33].isPrefixOf (s.data.toList.drop k)
    · rw [h1] at HB1
      rw [if_neg Bool.false_ne_true]
      clear h1 HB2
      cases h3 : [60, 47].isPrefixOf (s.data.toList.drop k)
      · rw [h3] at HB3
        rw [if_neg Bool.false_ne_true]
        obtain ⟨B, hB⟩ : ∃ B, [60, 63].isPrefixOf (s.data.toList.drop k) = B := ⟨_, rfl⟩
        rw [hB] at HB4 ⊢
        clear hB h3 hin ha
        go_enter Tryz.func26, Tryz.ntmps26
        go_wp2_with (fail)
        refine (HB1 _).out.mono ?_
        rintro e w1 ⟨rfl, n1, rfl⟩
        go_wp2_with (fail)
        refine (HB3 _).out.mono ?_
        rintro e w1 ⟨rfl, n2, rfl⟩
        go_wp2_with (fail)
        refine (HB4 _).out.mono ?_
        rintro e w1 ⟨rfl, n3, rfl⟩
        go_wp2
        go_ret
        exact ⟨rfl, dr_below _ _ _⟩
      · rw [h3] at HB3
        rw [if_pos rfl, List.drop_drop]
        have hk2 : k + 2 ≤ s.size := by
          have := (List.isPrefixOf_iff_prefix.1 h3).length_le
          rw [List.length_drop, ← Lib.size_eq] at this
          simp at this; omega
        have HN := fun w => Lib.hid (noTag_any (s.extract (k + 2) s.size) w (by rw [ByteArray.size_extract]; omega))
        rw [drop_text] at HN
        obtain ⟨B, hB⟩ : ∃ B, noT (s.data.toList.drop (k + 2)) = B := ⟨_, rfl⟩
        rw [hB] at HN ⊢
        have hki : (k : Int) + 2 ≤ (s.size : Int) := by omega
        clear hB h3 HB4 hin ha
        go_enter Tryz.func26, Tryz.ntmps26
        go_wp2_with (fail)
        refine (HB1 _).out.mono ?_
        rintro e w1 ⟨rfl, n1, rfl⟩
        go_wp2_with (fail)
        refine (HB3 _).out.mono ?_
        rintro e w1 ⟨rfl, n2, rfl⟩
        go_wp2_with (fail)
        refine (HN _).out.mono ?_
        rintro e w1 ⟨rfl, rfl⟩
        go_wp2
        go_ret
        exact ⟨rfl, dr_below _ _ _⟩
    · rw [h1] at HB1
      rw [if_pos rfl]
      obtain ⟨B, hB⟩ : ∃ B, ([60, 33] ++ dtL).isPrefixOf (lowL (s.data.toList.drop k)) = B := ⟨_, rfl⟩
      rw [hB] at HB2 ⊢
      clear hB h1 HB3 HB4 hin ha
      go_enter Tryz.func26, Tryz.ntmps26
      go_wp2_with (fail)
      refine (HB1 _).out.mono ?_
      rintro e w1 ⟨rfl, n1, rfl⟩
      go_wp2_with (fail)
      refine (HB2 _).out.mono ?_
      rintro e w1 ⟨rfl, n2, rfl⟩
      go_wp2
      go_ret
      exact ⟨ret_bool (by simp), dr_below _ _ _⟩
  · rw [begs_out s _ a hin] at HB1 HB3 HB4
    have hV : cbegV s.data.toList a = false := by
      unfold cbegV
      by_cases h0 : 0 ≤ a
      · rw [begC_short _ (by rw [List.length_drop, ← Lib.size_eq]; omega), Bool.and_false]
      · rw [decide_eq_false h0, Bool.false_and]
    rw [hV]
    clear hV HB2 hin ha
    go_enter Tryz.func26, Tryz.ntmps26
    go_wp2_with (fail)
    refine (HB1 _).out.mono ?_
    rintro e w1 ⟨rfl, n1, rfl⟩
    go_wp2_with (fail)
    refine (HB3 _).out.mono ?_
    rintro e w1 ⟨rfl, n2, rfl⟩
    go_wp2_with (fail)
    refine (HB4 _).out.mono ?_
    rintro e w1 ⟨rfl, n3, rfl⟩
    go_wp2
    go_ret
    exact ⟨rfl, dr_below _ _ _⟩

/-- where a comment's text begins -/
def tbN (l : Txt) : Nat := if [60, 33, 45, 45].isPrefixOf l = true then 4 else if [60, 63].isPrefixOf l = true then 1 else 2
theorem index_tw (l : Txt) : Lib.indexByte l 62 = if (l.takeWhile (· != 62)).length < l.length then ((l.takeWhile (· != 62)).length : Int) else -1 := by
  by_cases h : 62 ∈ l
  · obtain ⟨p, r, rfl, hp⟩ := first_of 62 l h
    have h1 : ∀ x ∈ p, (x != 62) = true := fun x hx => by
      rw [bne_iff_ne]; rintro rfl; exact hp hx
    have e1 : (p ++ 62 :: r).takeWhile (· != 62) = p := by
      rw [List.takeWhile_append_of_pos h1]; simp
    rw [e1, indexByte_hit p 62 r hp, if_pos (by simp)]
  · have h1 : ∀ x ∈ l, (x != 62) = true := fun x hx => by
      rw [bne_iff_ne]; rintro rfl; exact h hx
    have e1 : l.takeWhile (· != 62) = l := by
      have := List.takeWhile_append_of_pos (l₂ := []) h1
      rw [List.append_nil] at this
      rw [this]; simp
    rw [e1, indexByte_miss l 62 h, if_neg (Nat.lt_irrefl _)]
end Go.Proofs.YtcamkphanakkdaaGreatDoor
