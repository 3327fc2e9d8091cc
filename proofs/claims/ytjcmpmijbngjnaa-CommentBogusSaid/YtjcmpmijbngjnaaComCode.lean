/-
  What package comment's Begins and Read answer.
-/
import Derived.Test.YtjcmpmijbngjnaaComMark
import Derived.Test.YtjcmpmijbngjnaaP1
import Derived.Test.YtjcmpmijbngjnaaP4
namespace Go.Proofs.Ytjcmpmijbngjnaa
open Go.RowKit Go.Lib

/-- the package reads no variable -/
def ComLaid (_ : World) : Prop := True
theorem ComLaid.below {w w' : World} (_ : ComLaid w) (_ : Below w.heap.size w w') : ComLaid w' := trivial
theorem laid_here (w : World) : ComLaid w := trivial

/-- what has no small letter stands in whatever letters -/
theorem pre_low : ∀ (p l : Txt), (∀ c ∈ p, (c.toNat : Int) < 97) → (∀ c ∈ p, ¬ (65 ≤ (c.toNat : Int) ∧ (c.toNat : Int) ≤ 90)) → p.isPrefixOf (lowL l) = p.isPrefixOf l
  | [], l, _, _ => by simp
  | c :: p, [], _, _ => rfl
  | c :: p, d :: l, h, h' => by
    rw [lowL_cons, List.isPrefixOf_cons_cons, List.isPrefixOf_cons_cons, pre_low p l (fun x hx => h x (.tail _ hx)) (fun x hx => h' x (.tail _ hx))]
    congr 1
    have h1 := h c (.head _)
    have h2 := h' c (.head _)
    have h3 := lowB_int d
    unfold lowI at h3
    rw [Bool.eq_iff_iff, beq_iff_eq, beq_iff_eq, ← UInt8.toNat_inj, ← UInt8.toNat_inj]
    split at h3 <;> omega
theorem low_two (c : UInt8) (l : Txt) (hc : (c.toNat : Int) < 65) : [60, c].isPrefixOf (lowL l) = [60, c].isPrefixOf l := by
  refine pre_low _ _ ?_ ?_
  · intro x hx
    simp only [List.mem_cons, List.not_mem_nil, or_false] at hx
    rcases hx with rfl | rfl
    · decide
    · omega
  · intro x hx
    simp only [List.mem_cons, List.not_mem_nil, or_false] at hx
    rcases hx with rfl | rfl
    · decide
    · omega
theorem low_four (l : Txt) : [60, 33, 45, 45].isPrefixOf (lowL l) = [60, 33, 45, 45].isPrefixOf l := pre_low _ _ (by decide) (by decide)
/-- what stands behind a stroke, and makes it no tag -/
def noT : Txt → Bool
  | [] => false
  | c :: _ => !(c == 62) && !(letterI (c.toNat : Int))
theorem beg_told (l : Txt) : begC l = if [60, 33].isPrefixOf l = true then !(([60, 33] ++ dtL).isPrefixOf (lowL l)) else if [60, 47].isPrefixOf l = true then noT (l.drop 2) else [60, 63].isPrefixOf l := by
  match l with
  | [] => rfl
  | [c] =>
    have h : ∀ x : UInt8, [60, x].isPrefixOf [c] = false := fun x => by simp [List.isPrefixOf]
    rw [begC_short [c] (by simp), h, h, h]; rfl
  | c :: d :: t =>
    rw [begC_two]
    have hp : ∀ x : UInt8, [60, x].isPrefixOf (c :: d :: t) = (c == 60 && d == x) := fun x => by
      rw [List.isPrefixOf_cons_cons, List.isPrefixOf_cons_cons]
      simp [BEq.comm]
    rw [hp, hp, hp]
    cases hc : c == 60
    · rfl
    · have h60 : c = 60 := beq_iff_eq.1 hc
      subst h60
      simp only [Bool.true_and]
      by_cases h1 : d = 33
      · subst h1
        rw [if_pos rfl, lowL_cons, lowL_cons, List.cons_append, List.cons_append, List.nil_append, List.isPrefixOf_cons_cons, List.isPrefixOf_cons_cons, show lowB 60 = 60 by decide, show lowB 33 = 33 by decide]; rfl
      · rw [if_neg h1, show (d == 33) = false from beq_eq_false_iff_ne.2 h1, if_neg Bool.false_ne_true]
        by_cases h2 : d = 47
        · subst h2
          cases t <;> rfl
        · rw [if_neg h2, show (d == 47) = false from beq_eq_false_iff_ne.2 h2, if_neg Bool.false_ne_true]
          by_cases h3 : d = 63
          · subst h3; rfl
          · rw [if_neg h3, show (d == 63) = false from beq_eq_false_iff_ne.2 h3]

set_option maxRecDepth 100000 in
set_option maxHeartbeats 1000000 in
theorem noTag_any (s : ByteArray) (w : World) (hs : s.size ≤ 1048576) :
    Calls Try.prog 23 #[.string s] w fun e w' => e = .returned (.bool (noT s.data.toList)) ∧ w' = w := by
  by_cases h0 : s.size = 0
  · have hl : s.data.toList = [] := by rw [← List.length_eq_zero_iff, ← Lib.size_eq]; exact h0
    obtain rfl : s = ⟨#[]⟩ := str_ext (by rw [hl])
    clear h0 hl hs
    go_enter Try.func23, Try.ntmps23
    go_wp2
    go_ret
    exact ⟨rfl, rfl⟩
  · have hlt : 0 < s.size := by omega
    have hd : s.data.toList = s[0] :: s.data.toList.drop 1 := by
      have := drop_at s 0 hlt
      rw [List.drop_zero] at this; exact this
    have HL := fun w => Lib.hid (letter ((s[0].toNat : Nat) : Int) w (by omega) (by have := s[0].toNat_lt; omega))
    have hne : ¬ s.toList = [] := fun h => by
      have := str_beq s ⟨#[]⟩
      rw [h, hd] at this
      simp at this
    have hem : s.toList.isEmpty = false := by
      cases h : s.toList with
      | nil => exact absurd h hne
      | cons a l => rfl
    rw [hd, show noT (s[0] :: s.data.toList.drop 1) = (!(s[0] == 62) && !(letterI ((s[0].toNat : Nat) : Int))) from rfl]
    by_cases c62 : s[0] = 62
    · have b62 : (((s[0].toNat : Nat) : Int) != 62) = false := by rw [c62]; rfl
      rw [show (s[0] == 62) = true from beq_iff_eq.2 c62]
      clear c62 hd HL
      go_enter Try.func23, Try.ntmps23
      go_wp2
      go_ret
      exact ⟨rfl, rfl⟩
    · have b62 : (((s[0].toNat : Nat) : Int) != 62) = true := by
        rw [bne_iff_ne]; exact fun h => c62 (u8_eq _ 62 (by decide) h)
      rw [show (s[0] == 62) = false from beq_eq_false_iff_ne.2 c62]
      obtain ⟨L, hL⟩ : ∃ L, letterI ((s[0].toNat : Nat) : Int) = L := ⟨_, rfl⟩
      rw [hL] at HL ⊢
      clear c62 hd hL
      go_enter Try.func23, Try.ntmps23
      go_wp2_with (go_at_call 35; refine (HL _).out.mono ?_; rintro e w1 ⟨rfl, rfl⟩)
      go_ret
      exact ⟨ret_bool (by simp), rfl⟩

theorem begs_at (s low : ByteArray) (k : Nat) (h : k ≤ s.size) : begS s (k : Int) low = low.data.toList.isPrefixOf (lowL (s.data.toList.drop k)) := by
  unfold begS
  rw [decide_eq_true (show 0 ≤ (k : Int) ∧ (k : Int) ≤ (s.size : Int) by omega), Bool.true_and, show ((k : Nat) : Int).toNat = k by omega]
theorem begs_out (s low : ByteArray) (a : Int) (h : ¬ (0 ≤ a ∧ a ≤ (s.size : Int))) : begS s a low = false := by
  unfold begS; rw [decide_eq_false h, Bool.false_and]

set_option maxRecDepth 100000 in
set_option maxHeartbeats 1000000 in
/-- P10.1 -/
theorem comBegins_any (s : ByteArray) (a : Int) (w : World) (hs : s.size ≤ 1048576) (ha : -9223372036854775808 ≤ a ∧ a ≤ 9223372036854775807) (_h : ComLaid w) :
    Calls Try.prog 12 #[.string s, .int .i64 a] w fun e w' => e = .returned (.bool (cbegV s.data.toList a)) ∧ Below w.heap.size w w' := by
  have HB := fun low hl w => Lib.hid (begins s a low w (by omega) hl ha.1 ha.2)
  have HB1 := fun w => HB ⟨#[60, 33]⟩ (by decide) w
  have HB2 := fun w => HB ⟨#[60, 33, 100, 111, 99, 116, 121, 112, 101]⟩ (by decide) w
  have HB3 := fun w => HB ⟨#[60, 47]⟩ (by decide) w
  have HB4 := fun w => HB ⟨#[60, 63]⟩ (by decide) w
  clear HB
  by_cases hin : 0 ≤ a ∧ a ≤ (s.size : Int)
  · obtain ⟨k, rfl⟩ : ∃ k : Nat, a = k := ⟨a.toNat, by omega⟩
    have hk : k ≤ s.size := by omega
    have hkk : k ≤ 1048576 := by omega
    rw [begs_at s _ k hk, show (⟨#[60, 33]⟩ : ByteArray).data.toList = [60, 33] from rfl, low_two 33 _ (by decide)] at HB1
    rw [begs_at s _ k hk, show (⟨#[60, 33, 100, 111, 99, 116, 121, 112, 101]⟩ : ByteArray).data.toList = [60, 33] ++ dtL from rfl] at HB2
    rw [begs_at s _ k hk, show (⟨#[60, 47]⟩ : ByteArray).data.toList = [60, 47] from rfl, low_two 47 _ (by decide)] at HB3
    rw [begs_at s _ k hk, show (⟨#[60, 63]⟩ : ByteArray).data.toList = [60, 63] from rfl, low_two 63 _ (by decide)] at HB4
    rw [cbeg_in, beg_told]
    cases h1 : [60, 33].isPrefixOf (s.data.toList.drop k)
    · rw [h1] at HB1
      rw [if_neg Bool.false_ne_true]
      clear h1 HB2
      cases h3 : [60, 47].isPrefixOf (s.data.toList.drop k)
      · rw [h3] at HB3
        rw [if_neg Bool.false_ne_true]
        obtain ⟨B, hB⟩ : ∃ B, [60, 63].isPrefixOf (s.data.toList.drop k) = B := ⟨_, rfl⟩
        rw [hB] at HB4 ⊢
        clear hB h3 hin ha
        go_enter Try.func12, Try.ntmps12
        go_wp2_with (fail)
        refine (HB1 _).out.mono ?_
        rintro e w1 ⟨rfl, n1, rfl⟩
        go_wp2_with (fail)
        refine (HB3 _).out.mono ?_
        rintro e w1 ⟨rfl, n2, rfl⟩
        go_wp2_with (fail)
        refine (HB4 _).out.mono ?_
        rintro e w1 ⟨rfl, n3, rfl⟩
        go_wp2
        go_ret
        exact ⟨rfl, dr_below _ _ _⟩
      · rw [h3] at HB3
        rw [if_pos rfl, List.drop_drop]
        have hk2 : k + 2 ≤ s.size := by
          have := (List.isPrefixOf_iff_prefix.1 h3).length_le
          rw [List.length_drop, ← Lib.size_eq] at this
          simp at this; omega
        have HN := fun w => Lib.hid (noTag_any (s.extract (k + 2) s.size) w (by rw [ByteArray.size_extract]; omega))
        rw [drop_text] at HN
        obtain ⟨B, hB⟩ : ∃ B, noT (s.data.toList.drop (k + 2)) = B := ⟨_, rfl⟩
        rw [hB] at HN ⊢
        have hki : (k : Int) + 2 ≤ (s.size : Int) := by omega
        clear hB h3 HB4 hin ha
        go_enter Try.func12, Try.ntmps12
        go_wp2_with (fail)
        refine (HB1 _).out.mono ?_
        rintro e w1 ⟨rfl, n1, rfl⟩
        go_wp2_with (fail)
        refine (HB3 _).out.mono ?_
        rintro e w1 ⟨rfl, n2, rfl⟩
        go_wp2_with (fail)
        refine (HN _).out.mono ?_
        rintro e w1 ⟨rfl, rfl⟩
        go_wp2
        go_ret
        exact ⟨rfl, dr_below _ _ _⟩
    · rw [h1] at HB1
      rw [if_pos rfl]
      obtain ⟨B, hB⟩ : ∃ B, ([60, 33] ++ dtL).isPrefixOf (lowL (s.data.toList.drop k)) = B := ⟨_, rfl⟩
      rw [hB] at HB2 ⊢
      clear hB h1 HB3 HB4 hin ha
      go_enter Try.func12, Try.ntmps12
      go_wp2_with (fail)
      refine (HB1 _).out.mono ?_
      rintro e w1 ⟨rfl, n1, rfl⟩
      go_wp2_with (fail)
      refine (HB2 _).out.mono ?_
      rintro e w1 ⟨rfl, n2, rfl⟩
      go_wp2
      go_ret
      exact ⟨ret_bool (by simp), dr_below _ _ _⟩
  · rw [begs_out s _ a hin] at HB1 HB3 HB4
    have hV : cbegV s.data.toList a = false := by
      unfold cbegV
      by_cases h0 : 0 ≤ a
      · rw [begC_short _ (by rw [List.length_drop, ← Lib.size_eq]; omega), Bool.and_false]
      · rw [decide_eq_false h0, Bool.false_and]
    rw [hV]
    clear hV HB2 hin ha
    go_enter Try.func12, Try.ntmps12
    go_wp2_with (fail)
    refine (HB1 _).out.mono ?_
    rintro e w1 ⟨rfl, n1, rfl⟩
    go_wp2_with (fail)
    refine (HB3 _).out.mono ?_
    rintro e w1 ⟨rfl, n2, rfl⟩
    go_wp2_with (fail)
    refine (HB4 _).out.mono ?_
    rintro e w1 ⟨rfl, n3, rfl⟩
    go_wp2
    go_ret
    exact ⟨rfl, dr_below _ _ _⟩

/-- where a comment's text begins -/
def tbN (l : Txt) : Nat := if [60, 33, 45, 45].isPrefixOf l = true then 4 else if [60, 63].isPrefixOf l = true then 1 else 2
set_option maxRecDepth 100000 in
set_option maxHeartbeats 1000000 in
theorem textBegin_any (s : ByteArray) (k : Nat) (w : World) (hs : s.size ≤ 1048576) (hk : k ≤ s.size) :
    Calls Try.prog 14 #[.string s, .int .i64 (k : Int)] w fun e w' => e = .returned (.int .i64 ((k + tbN (s.data.toList.drop k) : Nat) : Int)) ∧ Below w.heap.size w w' := by
  have HB1 := fun w => Lib.hid (begins s (k : Int) ⟨#[60, 33, 45, 45]⟩ w (by omega) (by decide) (by omega) (by omega))
  have HB2 := fun w => Lib.hid (begins s (k : Int) ⟨#[60, 63]⟩ w (by omega) (by decide) (by omega) (by omega))
  have hkk : k ≤ 1048576 := by omega
  rw [begs_at s _ k hk, show (⟨#[60, 33, 45, 45]⟩ : ByteArray).data.toList = [60, 33, 45, 45] from rfl, low_four] at HB1
  rw [begs_at s _ k hk, show (⟨#[60, 63]⟩ : ByteArray).data.toList = [60, 63] from rfl, low_two 63 _ (by decide)] at HB2
  unfold tbN
  cases h1 : [60, 33, 45, 45].isPrefixOf (s.data.toList.drop k)
  · rw [h1] at HB1
    rw [if_neg Bool.false_ne_true]
    clear h1
    cases h2 : [60, 63].isPrefixOf (s.data.toList.drop k)
    all_goals
      rw [h2] at HB2
      clear h2
      go_enter Try.func14, Try.ntmps14
      go_wp2_with (fail)
      refine (HB1 _).out.mono ?_
      rintro e w1 ⟨rfl, n1, rfl⟩
      go_wp2_with (fail)
      refine (HB2 _).out.mono ?_
      rintro e w1 ⟨rfl, n2, rfl⟩
      go_wp2
      go_ret
      exact ⟨rfl, dr_below _ _ _⟩
  · rw [h1] at HB1
    clear h1 HB2
    go_enter Try.func14, Try.ntmps14
    go_wp2_with (fail)
    refine (HB1 _).out.mono ?_
    rintro e w1 ⟨rfl, n1, rfl⟩
    go_wp2
    go_ret
    exact ⟨rfl, dr_below _ _ _⟩

theorem index_tw (l : Txt) : Lib.indexByte l 62 = if (l.takeWhile (· != 62)).length < l.length then ((l.takeWhile (· != 62)).length : Int) else -1 := by
  by_cases h : 62 ∈ l
  · obtain ⟨p, r, rfl, hp⟩ := first_of 62 l h
    have h1 : ∀ x ∈ p, (x != 62) = true := fun x hx => by
      rw [bne_iff_ne]; rintro rfl; exact hp hx
    have e1 : (p ++ 62 :: r).takeWhile (· != 62) = p := by
      rw [List.takeWhile_append_of_pos h1]; simp
    rw [e1, indexByte_hit p 62 r hp, if_pos (by simp)]
  · have h1 : ∀ x ∈ l, (x != 62) = true := fun x hx => by
      rw [bne_iff_ne]; rintro rfl; exact h hx
    have e1 : l.takeWhile (· != 62) = l := by
      have := List.takeWhile_append_of_pos (l₂ := []) h1
      rw [List.append_nil] at this
      rw [this]; simp
    rw [e1, indexByte_miss l 62 h, if_neg (Nat.lt_irrefl _)]
set_option maxRecDepth 100000 in
set_option maxHeartbeats 1000000 in
theorem plainEnd_any (s : ByteArray) (f : Nat) (w : World) (hs : s.size ≤ 1048576) (hf : f ≤ s.size) :
    Calls Try.prog 15 #[.string s, .int .i64 (f : Int)] w fun e w' => e = .returned (.tuple #[.int .i64 (bogE s.data.toList f : Int), .int .i64 ((f + (bogC (s.data.toList.drop f)).2 : Nat) : Int)]) ∧ w' = w := by
  have HI := fun w => Lib.hid (Try.strings_IndexByte (s.extract f s.size) 62 w)
  have hb := bog_at s f hf
  obtain ⟨b1, b2, -, b4⟩ := hb
  rw [drop_text, show (62 : Int).toNat.toUInt8 = 62 from rfl, index_tw, List.length_drop, ← Lib.size_eq, show (List.takeWhile (· != 62) (s.data.toList.drop f)).length = bogE s.data.toList f - f by unfold bogE; omega] at HI
  rw [b4]
  obtain ⟨E, hE⟩ : ∃ E, bogE s.data.toList f = E := ⟨_, rfl⟩
  rw [hE] at HI b1 b2 ⊢
  clear hE b4
  have hff : f ≤ 1048576 := by omega
  by_cases h : E < s.size
  · rw [if_pos (by omega)] at HI
    rw [if_pos h]
    obtain ⟨d, rfl⟩ : ∃ d, E = f + d := ⟨E - f, by omega⟩
    rw [Nat.add_sub_cancel_left] at HI
    have hd : d ≤ 1048576 := by omega
    go_enter Try.func15, Try.ntmps15
    go_wp2_with (go_at_call 26; refine (HI _).out.mono ?_; rintro e w1 ⟨rfl, rfl⟩)
    go_ret2
    exact ⟨ret_ints (by omega) (by omega), rfl⟩
  · rw [if_neg (by omega)] at HI
    rw [if_neg h]
    obtain rfl : E = s.size := by omega
    go_enter Try.func15, Try.ntmps15
    go_wp2_with (go_at_call 26; refine (HI _).out.mono ?_; rintro e w1 ⟨rfl, rfl⟩)
    go_ret2
    exact ⟨rfl, rfl⟩

set_option maxRecDepth 100000 in
set_option maxHeartbeats 4000000 in
/-- P10.2 -/
theorem com_any (s : ByteArray) (a : Int) (w : World) (hs : s.size ≤ 1048576) (ha : -9223372036854775808 ≤ a ∧ a ≤ 9223372036854775807) (_h : ComLaid w) :
    Calls Try.prog 9 #[.string s, .int .i64 a] w (TellG (comV s.data.toList a) w) := by
  have HBg := fun w => Lib.hid (comBegins_any s a w hs ha trivial)
  cases hb : cbegV s.data.toList a
  · rw [hb] at HBg
    have HV := Lib.hid (com_no s.data.toList a hb)
    clear hb ha
    go_enter Try.func9, Try.ntmps9
    go_wp2_with (fail)
    refine (HBg _).out.mono ?_
    rintro e w1 ⟨rfl, b1⟩
    have HB := Lib.hid ((b1.block _ (by simp)).trans (heap_alloc_new w _))
    have B1 := Lib.hid (((Below.refl _ w).alloc (Nat.le_refl _) _).trans (b1.mono (by simp)))
    clear b1
    go_wp2_with (refine wpList_store_tok rfl _ _ rfl w.heap.size zeroT none 0 0 rfl rfl _ HB.out rfl ?_; intro w2 hb2 hg2)
    have B2 := B1.out.grown hg2 B1.out.size (fun j hj => by cases hj; exact Nat.le_refl _)
    refine bodyPost_ret (results_tok rfl _ _ w.heap.size zeroT none 0 0 rfl (tokAt_row hb2)) rfl ?_
    exact ⟨zeroT, none, 0, 0, _, false, rfl, isRows_none _, HV.out, B2⟩
  obtain ⟨k, rfl⟩ : ∃ k : Nat, a = k := ⟨a.toNat, by
    unfold cbegV at hb
    rw [Bool.and_eq_true, decide_eq_true_iff] at hb; omega⟩
  rw [hb] at HBg
  rw [cbeg_in] at hb
  have hk1 : k + 1 < s.size := Nat.lt_of_not_le fun h => by
    rw [begC_short _ (by rw [List.length_drop, ← Lib.size_eq]; omega)] at hb; cases hb
  have hk : k ≤ 1048576 := by omega
  have hv := com_in s.data.toList k hb
  have HX := fun w => Lib.hid (begins s (k : Int) ⟨#[60, 33, 45, 45]⟩ w (by omega) (by decide) (by omega) (by omega))
  rw [begs_at s _ k (by omega), show (⟨#[60, 33, 45, 45]⟩ : ByteArray).data.toList = [60, 33, 45, 45] from rfl, low_four] at HX
  have HT := fun w => Lib.hid (textBegin_any s k w hs (by omega))
  unfold tbN at HT
  unfold comR at hv
  have hk60 : s[k] = 60 := by
    rw [drop_at s k (by omega), drop_at s (k + 1) hk1, begC_two, Bool.and_eq_true] at hb
    exact beq_iff_eq.1 hb.1
  clear ha hb
  -- what the two ways have in common: where the text begins, and ends, and its comment does
  obtain ⟨f, fn, E, V, hfs, hfE, hEs, hHT, hHX, hfn, hval⟩ : ∃ (f : Nat) (fn : Nat) (E V : Nat), f ≤ s.size ∧ f ≤ E ∧ E ≤ s.size ∧
      (∀ w, Hid (Calls Try.prog 14 #[.string s, .int .i64 (k : Int)] w fun e w' => e = .returned (.int .i64 (f : Int)) ∧ Below w.heap.size w w')) ∧
      (∀ w, Hid (Calls Try.prog 16 #[.string s, .int .i64 (k : Int), .string ⟨#[60, 33, 45, 45]⟩] w fun e w' => e = .returned (.bool (decide (fn = 1))) ∧ ∃ n, w' = w.drewN n)) ∧
      (fn = 1 ∧ (∀ w, Hid (Calls Try.prog 17 #[.string s, .int .i64 (f : Int)] w fun e w' => e = .returned (.tuple #[.int .i64 (E : Int), .int .i64 (V : Int)]) ∧ Below w.heap.size w w')) ∨
        fn = 0 ∧ (∀ w, Hid (Calls Try.prog 15 #[.string s, .int .i64 (f : Int)] w fun e w' => e = .returned (.tuple #[.int .i64 (E : Int), .int .i64 (V : Int)]) ∧ Below w.heap.size w w'))) ∧
      comV s.data.toList (k : Int) = (comT (s.extract f E).data.toList, (V : Int), true) := by
    cases hp : [60, 33, 45, 45].isPrefixOf (s.data.toList.drop k)
    · rw [hp, if_neg Bool.false_ne_true] at HT
      rw [hp, if_neg Bool.false_ne_true] at hv
      rw [hp] at HX
      have hh : ((s.data.toList.drop k).drop 1).head? = some s[k + 1] := by rw [List.drop_drop, drop_at s (k + 1) hk1]; rfl
      rw [hh, List.drop_drop, List.drop_drop] at hv
      have h60 : [60, 63].isPrefixOf (s.data.toList.drop k) = true → s[k + 1] = 63 := fun h => by
        rw [drop_at s k (by omega), drop_at s (k + 1) hk1, List.isPrefixOf_cons_cons, List.isPrefixOf_cons_cons] at h
        simp at h
        exact h.2.symm
      have key : ∀ f : Nat, f ≤ s.size → comV s.data.toList (k : Int) = (comT (bogC (s.data.toList.drop f)).1, ((f + (bogC (s.data.toList.drop f)).2 : Nat) : Int), true) → f ≤ bogE s.data.toList f ∧ bogE s.data.toList f ≤ s.size ∧ comV s.data.toList (k : Int) = (comT (s.extract f (bogE s.data.toList f)).data.toList, ((f + (bogC (s.data.toList.drop f)).2 : Nat) : Int), true) := fun f hf hc => by
        obtain ⟨b1, b2, b3, b4⟩ := bog_at s f hf
        exact ⟨b1, b2, by rw [hc, b3]⟩
      have fin : ∀ f : Nat, f ≤ s.size → ∀ w, Hid (Calls Try.prog 15 #[.string s, .int .i64 (f : Int)] w fun e w' => e = .returned (.tuple #[.int .i64 (bogE s.data.toList f : Int), .int .i64 ((f + (bogC (s.data.toList.drop f)).2 : Nat) : Int)]) ∧ Below w.heap.size w w') := fun f hf w => Lib.hid ((plainEnd_any s f w hs hf).mono (by rintro e w' ⟨rfl, rfl⟩; exact ⟨rfl, Below.refl _ _⟩))
      cases h6 : [60, 63].isPrefixOf (s.data.toList.drop k)
      · rw [h6, if_neg Bool.false_ne_true] at HT
        have hne : s[k + 1] ≠ 63 := fun e => by
          rw [drop_at s k (by omega), drop_at s (k + 1) hk1, hk60, e] at h6
          simp [List.isPrefixOf] at h6
        rw [if_neg (fun e => hne (Option.some.inj e))] at hv
        obtain ⟨c1, c2, c3⟩ := key (k + 2) (by omega) (by
          rw [hv]; simp only [Prod.mk.injEq, true_and, and_true]; omega)
        exact ⟨k + 2, 0, _, _, by omega, c1, c2, HT, HX, .inr ⟨rfl, fin (k + 2) (by omega)⟩, c3⟩
      · rw [h6, if_pos rfl] at HT
        rw [if_pos (by rw [h60 h6])] at hv
        obtain ⟨c1, c2, c3⟩ := key (k + 1) (by omega) (by
          rw [hv]; simp only [Prod.mk.injEq, true_and, and_true]; omega)
        exact ⟨k + 1, 0, _, _, by omega, c1, c2, HT, HX, .inr ⟨rfl, fin (k + 1) (by omega)⟩, c3⟩
    · rw [hp, if_pos rfl] at HT
      rw [hp, if_pos rfl, List.drop_drop] at hv
      rw [hp] at HX
      have hk4 : k + 4 ≤ s.size := by
        have := (List.isPrefixOf_iff_prefix.1 hp).length_le
        rw [List.length_drop, ← Lib.size_eq] at this
        simp at this; omega
      have hpre := plain_pre (s.data.toList.drop (k + 4))
      have hlen : (plainC (s.data.toList.drop (k + 4))).1.length ≤ s.size - (k + 4) := by
        have := (List.prefix_iff_eq_take.2 hpre).length_le
        rw [List.length_drop, ← Lib.size_eq] at this; exact this
      have HM := fun w => Lib.hid (markedEnd_any s (k + 4) ((k + 4 : Nat) : Int) w hs rfl hk4)
      refine ⟨k + 4, 1, _, _, hk4, ?_, ?_, HT, HX, .inl ⟨rfl, HM⟩, ?_⟩
      · omega
      · omega
      · rw [hv, Lib.extract_data, Nat.add_sub_cancel_left, ← hpre]
        simp only [Prod.mk.injEq, true_and, and_true]; omega
  have HC := fun w => Lib.hid (clean_any (s.extract f E) w (by rw [ByteArray.size_extract]; omega))
  have ht : comT (s.extract f E).data.toList = ⟨3, [], cleanL (s.extract f E).data.toList, [], false⟩ := rfl
  rw [ht] at hval
  obtain ⟨X, hX⟩ : ∃ X, cleanL (s.extract f E).data.toList = X := ⟨_, rfl⟩
  rw [hX] at HC hval
  have HV := Lib.hid hval
  have hE2 : E ≤ 1048576 := by omega
  have hf2 : f ≤ 1048576 := by omega
  have HFN := Lib.hid hfn
  have HHX := fun w => Lib.hid (hHX w)
  have HHT := fun w => Lib.hid (hHT w)
  clear hX ht hval hv HT HX hfn hHX hHT hk60
  rcases HFN.out with ⟨h1, HM⟩ | ⟨h1, HM⟩
  all_goals
    rw [h1] at HHX
    have HM2 := fun w => Lib.hid (HM w)
    clear h1 HM HFN
    go_enter Try.func9, Try.ntmps9
    go_wp2_with (fail)
    refine (HBg _).out.mono ?_
    rintro e w1 ⟨rfl, b1⟩
    have HB := Lib.hid ((b1.block _ (by simp)).trans (heap_alloc_new w _))
    have B1 := Lib.hid (((Below.refl _ w).alloc (Nat.le_refl _) _).trans (b1.mono (by simp)))
    have hlt1 : w.heap.size < w1.heap.size := (Array.getElem?_eq_some_iff.1 HB.out).1
    clear b1
    go_wp2_with (fail)
    refine (HHT _).out.out.mono ?_
    rintro e w2 ⟨rfl, b2⟩
    have HB2 := Lib.hid ((b2.block _ hlt1).trans HB.out)
    have B2 := Lib.hid (B1.out.trans (b2.mono B1.out.size))
    have hlt2 : w.heap.size < w2.heap.size := (Array.getElem?_eq_some_iff.1 HB2.out).1
    clear b2 HB B1 hlt1
    go_wp2_with (fail)
    refine (HHX _).out.out.mono ?_
    rintro e w3 ⟨rfl, n3, rfl⟩
    have HB3 := Lib.hid (((dr_below w2.heap.size w2 n3).block _ hlt2).trans HB2.out)
    have B3 := Lib.hid (B2.out.trans ((dr_below w2.heap.size w2 n3).mono B2.out.size))
    have hlt3 : w.heap.size < (w2.drewN n3).heap.size := (Array.getElem?_eq_some_iff.1 HB3.out).1
    go_wp2_with (fail)
    refine (HM2 _).out.out.mono ?_
    rintro e w4 ⟨rfl, b4⟩
    have HB4 := Lib.hid ((b4.block _ hlt3).trans HB3.out)
    have B4 := Lib.hid (B3.out.trans (b4.mono B3.out.size))
    have hlt4 : w.heap.size < w4.heap.size := (Array.getElem?_eq_some_iff.1 HB4.out).1
    clear b4 HB3 B3 hlt3 HB2 B2 hlt2
    go_wp2_with (fail)
    refine (HC _).out.mono ?_
    rintro e w5 ⟨rfl, b5⟩
    have HB5 := Lib.hid ((b5.block _ hlt4).trans HB4.out)
    have B5 := Lib.hid (B4.out.trans (b5.mono B4.out.size))
    clear b5
    go_wp2_with (refine wpList_store_tok rfl _ _ rfl w.heap.size ⟨3, [], X, [], false⟩ none 0 0 rfl rfl _ HB5.out rfl ?_; intro w6 hb6 hg6)
    have B6 := B5.out.grown hg6 B5.out.size (fun j hj => by cases hj; exact Nat.le_refl _)
    refine bodyPost_ret (results_tok rfl _ _ w.heap.size ⟨3, [], X, [], false⟩ none 0 0 rfl (tokAt_row hb6)) rfl ?_
    exact ⟨⟨3, [], X, [], false⟩, none, 0, 0, _, true, rfl, isRows_none _, HV.out, B6⟩
end Go.Proofs.Ytjcmpmijbngjnaa
