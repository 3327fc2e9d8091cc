/-
  What package doctype's Begins, Read and Parse answer.
-/
import Derived.Test.YtbceopiipigljaaDtCodeP
namespace Go.Proofs.Ytbceopiipigljaa
open Go.RowKit Go.Lib

/-- the package reads no variable -/
def DtLaid (_ : World) : Prop := True
theorem DtLaid.below {w w' : World} (_ : DtLaid w) (_ : Below w.heap.size w w') : DtLaid w' := trivial
theorem dtLaid_here (w : World) : DtLaid w := trivial

theorem beg_dctP (s : ByteArray) (a : Int) : begS s a ⟨#[60, 33, 100, 111, 99, 116, 121, 112, 101]⟩ = dbegV s.data.toList a := by
  by_cases h : 0 ≤ a ∧ a ≤ (s.size : Int)
  · unfold begS dbegV begD
    rw [decide_eq_true h, decide_eq_true h.1]; rfl
  · rw [dbeg_out s.data.toList a (by rw [← Lib.size_eq]; omega)]
    unfold begS; rw [decide_eq_false h, Bool.false_and]

set_option maxRecDepth 100000 in
set_option maxHeartbeats 1000000 in
/-- P11.1 -/
theorem dctBegins_any (s : ByteArray) (a : Int) (w : World) (hs : s.size ≤ 1048576) (ha : -9223372036854775808 ≤ a ∧ a ≤ 9223372036854775807) (_h : DtLaid w) :
    Calls Try.prog 13 #[.string s, .int .i64 a] w fun e w' => e = .returned (.bool (dbegV s.data.toList a)) ∧ Below w.heap.size w w' := by
  have HB := fun w => Lib.hid (begins s a ⟨#[60, 33, 100, 111, 99, 116, 121, 112, 101]⟩ w (by omega) (by decide) ha.1 ha.2)
  rw [beg_dctP] at HB
  clear ha
  go_enter Try.func13, Try.ntmps13
  go_wp2_with (fail)
  refine (HB _).out.mono ?_
  rintro e w1 ⟨rfl, n1, rfl⟩
  go_wp2
  go_ret
  exact ⟨rfl, dr_below _ _ _⟩

set_option maxRecDepth 100000 in
set_option maxHeartbeats 4000000 in
/-- P11.1 -/
theorem dct_any (s : ByteArray) (a : Int) (w : World) (hs : s.size ≤ 1048576) (ha : -9223372036854775808 ≤ a ∧ a ≤ 9223372036854775807) (_h : DtLaid w) :
    Calls Try.prog 10 #[.string s, .int .i64 a] w (TellG (dctV s.data.toList a) w) := by
  have HBg := fun w => Lib.hid (dctBegins_any s a w hs ha trivial)
  cases hb : dbegV s.data.toList a
  · rw [hb] at HBg
    have HV := Lib.hid (dct_no s.data.toList a hb)
    clear hb ha
    go_enter Try.func10, Try.ntmps10
    go_wp2_with (fail)
    refine (HBg _).out.mono ?_
    rintro e w1 ⟨rfl, b1⟩
    have HB := Lib.hid ((b1.block _ (by simp)).trans (heap_alloc_new w _))
    have B1 := Lib.hid (((Below.refl _ w).alloc (Nat.le_refl _) _).trans (b1.mono (by simp)))
    clear b1
    go_wp2_with (refine wpList_store_tok rfl _ _ rfl w.heap.size zeroT none 0 0 rfl rfl _ HB.out rfl ?_; intro w2 hb2 hg2)
    have B2 := B1.out.grown hg2 B1.out.size (fun j hj => by cases hj; exact Nat.le_refl _)
    refine bodyPost_ret (results_tok rfl _ _ w.heap.size zeroT none 0 0 rfl (tokAt_row hb2)) rfl ?_
    exact ⟨zeroT, none, 0, 0, _, false, rfl, isRows_none _, HV.out, B2⟩
  obtain ⟨k, rfl⟩ : ∃ k : Nat, a = k := ⟨a.toNat, by
    unfold dbegV at hb
    rw [Bool.and_eq_true, decide_eq_true_iff] at hb; omega⟩
  have hk9 : k + 9 ≤ s.size := Nat.le_of_not_lt fun h => by
    rw [dbeg_out s.data.toList k (by rw [← Lib.size_eq]; omega)] at hb; cases hb
  rw [hb] at HBg
  rw [dbeg_in] at hb
  have hv := dct_in s.data.toList k hb
  have hx : s.extract (k + 9) s.size = ⟨(s.data.toList.drop (k + 9)).toArray⟩ := tail_str s (k + 9)
  have hdl : (s.data.toList.drop (k + 9)).length = s.size - (k + 9) := by rw [List.length_drop, ← Lib.size_eq]
  obtain ⟨l, hl⟩ : ∃ l, s.data.toList.drop (k + 9) = l := ⟨_, rfl⟩
  have HC := fun w => Lib.hid (cut_any (s.extract (k + 9) s.size) 62 (l.takeWhile (· != 62)) (l.dropWhile (· != 62)) w (by rw [ByteArray.size_extract]; omega) (by rw [hx, hl]; simp) (fun h => by
      have := tw_all _ _ _ h
      simp at this) (by
      rcases dw_cases (· != 62) l with h | ⟨d, z, h, hd⟩
      · exact .inl h
      · refine .inr ⟨z, ?_⟩
        rw [h, show d = 62 by simpa using hd]))
  unfold cutV at HC
  have hsk : seekP (· != 62) s.data.toList (k + 9) = k + 9 + (l.takeWhile (· != 62)).length := by unfold seekP; rw [hl]
  have hsum : (l.takeWhile (· != 62)).length + (l.dropWhile (· != 62)).length = l.length := by
    rw [← List.length_append, List.takeWhile_append_dropWhile]
  rw [hl] at hdl hv
  rw [hsk, ← Lib.size_eq] at hv
  have hdct : dctT (l.takeWhile (· != 62)) = ⟨4, [], cleanL (l.takeWhile (· != 62)), [], false⟩ := rfl
  rw [hdct] at hv
  obtain ⟨L, hL⟩ : ∃ L : ByteArray, ⟨(l.takeWhile (· != 62)).toArray⟩ = L := ⟨_, rfl⟩
  have hLl : L.data.toList = l.takeWhile (· != 62) := by rw [← hL]
  have hLs : (l.takeWhile (· != 62)).length = L.size := by rw [Lib.size_eq, hLl]
  rw [hL] at HC
  rw [hLs] at hsum hv
  have HCl := fun w => Lib.hid (clean_any L w (by omega))
  rw [hLl] at HCl
  obtain ⟨X, hX⟩ : ∃ X, cleanL (l.takeWhile (· != 62)) = X := ⟨_, rfl⟩
  rw [hX] at HCl hv
  obtain ⟨Y, hY⟩ : ∃ Y : ByteArray, ⟨((l.dropWhile (· != 62)).tail).toArray⟩ = Y := ⟨_, rfl⟩
  rw [hY] at HC
  have hki : (k : Int) + 9 ≤ (s.size : Int) := by omega
  have hkk : k ≤ 1048576 := by omega
  have hle : k + 9 + L.size ≤ s.size := by omega
  have hL2 : L.size ≤ 1048576 := by omega
  have key : ∃ (b : Bool) (V : Nat), (!(l.dropWhile (· != 62)).isEmpty) = b ∧ dctV s.data.toList (k : Int) = (⟨4, [], X, [], false⟩, (V : Int), true) ∧ (b = true ∧ V = k + 9 + L.size + 1 ∨ b = false ∧ V = k + 9 + L.size) := by
    cases hd : l.dropWhile (· != 62) with
    | nil =>
      rw [hd, List.length_nil] at hsum
      refine ⟨false, k + 9 + L.size, rfl, ?_, .inr ⟨rfl, rfl⟩⟩
      rw [hv, if_neg (by omega)]
      simp only [Prod.mk.injEq, true_and, and_true]; omega
    | cons c z =>
      rw [hd, List.length_cons] at hsum
      refine ⟨true, k + 9 + L.size + 1, rfl, ?_, .inl ⟨rfl, rfl⟩⟩
      rw [hv, if_pos (by omega)]
  obtain ⟨b, V, hbE, hV, hVb⟩ := key
  rw [hbE] at HC
  have HV := Lib.hid hV
  have HVB := Lib.hid hVb
  clear ha hb hv hx hdl hl hsk hsum hdct hL hLl hLs hX hY hbE hV hVb
  rcases HVB.out with ⟨hb, hVe⟩ | ⟨hb, hVe⟩
  all_goals
    subst hb
    have HVE := Lib.hid hVe
    clear hVe
    go_enter Try.func10, Try.ntmps10
    go_wp2_with (fail)
    refine (HBg _).out.mono ?_
    rintro e w1 ⟨rfl, b1⟩
    have HB := Lib.hid ((b1.block _ (by simp)).trans (heap_alloc_new w _))
    have B1 := Lib.hid (((Below.refl _ w).alloc (Nat.le_refl _) _).trans (b1.mono (by simp)))
    have hlt1 : w.heap.size < w1.heap.size := (Array.getElem?_eq_some_iff.1 HB.out).1
    clear b1
    go_wp2_with (fail)
    refine (HC _).out.mono ?_
    rintro e w2 ⟨rfl, n2, rfl⟩
    have HB2 := Lib.hid (((dr_below w1.heap.size w1 n2).block _ hlt1).trans HB.out)
    have B2 := Lib.hid (B1.out.trans ((dr_below w1.heap.size w1 n2).mono B1.out.size))
    have hlt2 : w.heap.size < (w1.drewN n2).heap.size := (Array.getElem?_eq_some_iff.1 HB2.out).1
    go_wp2_with (fail)
    refine (HCl _).out.mono ?_
    rintro e w3 ⟨rfl, b3⟩
    have HB3 := Lib.hid ((b3.block _ hlt2).trans HB2.out)
    have B3 := Lib.hid (B2.out.trans (b3.mono B2.out.size))
    clear b3
    go_wp2_with (refine wpList_store_tok rfl _ _ rfl w.heap.size ⟨4, [], X, [], false⟩ none 0 0 rfl rfl _ HB3.out rfl ?_; intro w4 hb4 hg4)
    have B4 := B3.out.grown hg4 B3.out.size (fun j hj => by cases hj; exact Nat.le_refl _)
    refine bodyPost_ret (results_tok rfl _ _ w.heap.size ⟨4, [], X, [], false⟩ none 0 0 rfl (tokAt_row hb4)) rfl ?_
    exact ⟨⟨4, [], X, [], false⟩, none, 0, 0, _, true, rfl, isRows_none _, HV.out.trans (by rw [HVE.out]; simp only [Prod.mk.injEq, true_and, and_true]; omega), B4⟩

/-- P11.2 -/
theorem dctParse_any (s : ByteArray) (ended : Bool) (w : World) (hs : s.size ≤ 1048576) (_h : DtLaid w) :
    Calls Try.prog 15 #[.string s, .bool ended] w fun e w' => e = .returned (docV (parseD s.data.toList ended)) ∧ Below w.heap.size w w' := dctParse_all s ended w hs
end Go.Proofs.Ytbceopiipigljaa
