/-
  What package names' Value, Short, Longest and Text answer, for every input.
-/
import Derived.Test.YtdpgdcbclgdjaaaDoorNamInt
import Derived.Test.YtdpgdcbclgdjaaaDoorSrchTop
import Derived.Test.YtdpgdcbclgdjaaaDoorUtfSgn
namespace Go.Proofs.YtdpgdcbclgdjaaaDoor
open Go.RowKit Go.Lib

theorem rest_len {r : Ln} (h : RowP r) : r.2.length ≤ 11 := by
  have h6 := h.firLen
  have h7 := h.secLen
  rcases h.form with ⟨a, -⟩ | ⟨a, -⟩
  · rw [a]; omega
  · rw [a]; simp; omega
theorem fir_cut : ∀ r : Txt, ∃ rest, r = firL r ++ rest ∧ 32 ∉ firL r ∧ (rest = [] ∨ ∃ z, rest = 32 :: z) ∧ rest.tail = secL r
  | [] => ⟨[], rfl, by simp [firL], .inl rfl, rfl⟩
  | c :: l => by
    by_cases h : c = 32
    · subst h
      refine ⟨32 :: l, ?_, ?_, .inr ⟨l, rfl⟩, ?_⟩ <;> simp [firL, secL]
    · obtain ⟨rest, h1, h2, h3, h4⟩ := fir_cut l
      have hb : (c == 32) = false := by simpa using h
      refine ⟨rest, ?_, ?_, h3, ?_⟩
      · rw [firL, hb]; simp only [Bool.false_eq_true, if_false, List.cons_append]; rw [← h1]
      · rw [firL, hb]; simp only [Bool.false_eq_true, if_false, List.mem_cons, not_or]; exact ⟨fun e => h e.symm, h2⟩
      · rw [secL, hb]; simpa using h4

set_option maxHeartbeats 4000000 in
set_option maxRecDepth 1000000 in
theorem value_any (name : ByteArray) (w : World) (hw : ErrAt w) :
    Calls Tryd.prog 24 #[.string name] w fun e w' => e = .returned (.tuple #[.complex .f64 (fl (aOf (nmLook name.data.toList))) (fl (bOf (nmLook name.data.toList))), .bool (nmLook name.data.toList).isSome]) ∧ Below w.heap.size w w' := by
  have HR := fun r h => Lib.hid (look_row (name := name.data.toList) (r := r) h)
  obtain ⟨o, ho⟩ : ∃ o, nmLook name.data.toList = o := ⟨_, rfl⟩
  have ho2 : lookL nmRows name.data.toList = o := ho
  rw [ho] at HR ⊢
  refine calls_of_wp Tryd.func24 rfl ?_
  generalize hT : (ByteArray.mk (List.toArray (List.append _ _))) = T
  have HT : IsNm T := ⟨by rw [← hT]; kernel_rfl⟩
  clear hT
  have HL := fun w => Lib.hid (line_any T name nmRows w (by have := HT.size; omega) HT.list nm_valid)
  rw [ho2] at HL
  clear ho ho2 HT
  unfold strV at *
  cases o with
  | none =>
    have F0 := fl_0
    clear HR
    simp only [Tryd.ntmps24, List.size_toArray, List.length_cons, List.length_nil, Nat.reduceAdd, Nat.reduceSub, Array.replicate_succ, Array.replicate_zero, List.push_toArray, List.append_toArray, List.nil_append, List.cons_append]
    go_wp2_with (fail)
    refine (HL _).out.mono ?_
    rintro e w1 ⟨rfl, b1⟩
    go_wp2
    go_ret2
    exact ⟨rfl, b1⟩
  | some r =>
    obtain ⟨rest, h1, h2, h3, h4⟩ := fir_cut r
    have hp := nm_row _ (HR r rfl).out
    have hx1 := hp.firHex
    have hx2 := hp.secHex
    have hl1 := hp.firLen
    have hl2 := hp.secLen
    have hsz : (⟨r.toArray⟩ : ByteArray).size ≤ 1099511627776 := by
      rw [Lib.size_eq, List.toList_toArray]
      have := rest_len hp
      simp only at this
      omega
    simp only at hx1 hx2 hl1 hl2
    have HC := fun w => Lib.hid (cut_any ⟨r.toArray⟩ 32 (firL r) rest w hsz (by rw [List.toList_toArray]; exact h1) h2 h3)
    have HN1 := fun w h => Lib.hid (number_any (firL r) w h hl1 hx1)
    have HN2 := fun w h => Lib.hid (number_any (secL r) w h hl2 hx2)
    unfold cutV at HC
    rw [h4] at HC
    unfold strV at HN1 HN2
    show Code.wp _ _ (bodyPost _ _ fun e w' => e = .returned (.tuple #[.complex .f64 (fl (hexN (firL r))) (fl (hexN (secL r))), .bool true]) ∧ Below w.heap.size w w') _ _
    obtain ⟨A, hA⟩ : ∃ A, fl (hexN (firL r)) = A := ⟨_, rfl⟩
    obtain ⟨B, hB⟩ : ∃ B, fl (hexN (secL r)) = B := ⟨_, rfl⟩
    rw [hA] at HN1 ⊢
    rw [hB] at HN2 ⊢
    clear hA hB h1 h2 h3 h4 hp hx1 hx2 hl1 hl2 hsz HR
    have HW := Lib.hid hw
    clear hw
    simp only [Tryd.ntmps24, List.size_toArray, List.length_cons, List.length_nil, Nat.reduceAdd, Nat.reduceSub, Array.replicate_succ, Array.replicate_zero, List.push_toArray, List.append_toArray, List.nil_append, List.cons_append]
    go_wp2_with (fail)
    refine (HL _).out.mono ?_
    rintro e w1 ⟨rfl, b1⟩
    have e1 := Lib.hid (HW.out.below b1)
    go_wp2_with (fail)
    refine (HC _).out.mono ?_
    rintro e w2 ⟨rfl, n, rfl⟩
    have b2 := b1.trans (dr_below _ w1 n)
    go_wp2_with (fail)
    refine (HN1 _ (HW.out.below b2)).out.mono ?_
    rintro e w3 ⟨rfl, b3⟩
    have b4 := b2.trans (b3.mono b2.size)
    go_wp2_with (fail)
    refine (HN2 _ (HW.out.below b4)).out.mono ?_
    rintro e w5 ⟨rfl, b5⟩
    go_wp2
    go_ret2
    exact ⟨rfl, b4.trans (b5.mono b4.size)⟩

set_option maxHeartbeats 4000000 in
set_option maxRecDepth 1000000 in
theorem short_any (name : ByteArray) (w : World) (hs : name.size ≤ 1099511627776) :
    Calls Tryd.prog 21 #[.string name] w fun e w' => e = .returned (.bool ((nmLook name.data.toList).isSome && !Lib.hasSuffix name.data.toList [59])) ∧ Below w.heap.size w w' := by
  obtain ⟨o, ho⟩ : ∃ o, nmLook name.data.toList = o := ⟨_, rfl⟩
  have ho2 : lookL nmRows name.data.toList = o := ho
  rw [ho]
  refine calls_of_wp Tryd.func21 rfl ?_
  generalize hT : (ByteArray.mk (List.toArray (List.append _ _))) = T
  have HT : IsNm T := ⟨by rw [← hT]; kernel_rfl⟩
  clear hT
  have HL := fun w => Lib.hid (line_any T name nmRows w (by have := HT.size; omega) HT.list nm_valid)
  rw [ho2] at HL
  obtain ⟨r, hr⟩ : ∃ r, o.getD [] = r := ⟨_, rfl⟩
  obtain ⟨b, hb⟩ : ∃ b, o.isSome = b := ⟨_, rfl⟩
  rw [hr, hb] at HL
  rw [hb]
  have HS := fun w => Lib.hid (Tryd.strings_HasSuffix name ⟨#[59]⟩ w (by omega))
  obtain ⟨c, hc⟩ : ∃ c, Lib.hasSuffix name.data.toList [59] = c := ⟨_, rfl⟩
  have hc2 : Lib.hasSuffix name.data.toList (ByteArray.mk #[59]).data.toList = c := hc
  rw [hc2] at HS
  rw [hc]
  clear ho ho2 HT hr hb hc hc2 o
  unfold strV at *
  cases b
  all_goals
    simp only [Tryd.ntmps21, List.size_toArray, List.length_cons, List.length_nil, Nat.reduceAdd, Nat.reduceSub, Array.replicate_succ, Array.replicate_zero, List.push_toArray, List.append_toArray, List.nil_append, List.cons_append]
    go_wp2_with (first | (go_at_call 40; refine (HL _).out.mono ?_; rintro e w1 ⟨rfl, b1⟩) | (go_at_call 41; refine (HS _).out.mono ?_; rintro e w' ⟨rfl, rfl⟩))
    go_ret
    exact ⟨rfl, b1⟩

set_option maxHeartbeats 4000000 in
set_option maxRecDepth 1000000 in
theorem nmLongest_any (s : ByteArray) (a : Int) (w : World) (ha : -9223372036854775808 ≤ a ∧ a ≤ 9223372036854775807) :
    Calls Tryd.prog 20 #[.string s, .int .i64 a] w fun e w' => e = .returned (.int .i64 (bestL nmRows (winL s.data.toList a 32) : Int)) ∧ ∃ n, w' = w.drewN n := by
  refine calls_of_wp Tryd.func20 rfl ?_
  generalize hT : (ByteArray.mk (List.toArray (List.append _ _))) = T
  have HT : IsNm T := ⟨by rw [← hT]; kernel_rfl⟩
  clear hT
  have HL := fun w => Lib.hid (longest_any T s a 32 nmRows w (by have := HT.size; omega) ha (by decide) HT.list nm_valid)
  obtain ⟨r, hr⟩ : ∃ r : Int, (bestL nmRows (winL s.data.toList a 32) : Int) = r := ⟨_, rfl⟩
  rw [hr] at HL ⊢
  clear HT hr
  simp only [Tryd.ntmps20, List.size_toArray, List.length_cons, List.length_nil, Nat.reduceAdd, Nat.reduceSub, Array.replicate_succ, Array.replicate_zero, List.push_toArray, List.append_toArray, List.nil_append, List.cons_append]
  go_wp2_with (fail)
  refine (HL _).out.mono ?_
  rintro e w1 ⟨rfl, n, rfl⟩
  go_wp2
  go_ret
  exact ⟨rfl, n, rfl⟩

/-- P6.1: a value's text -/
def textL (x y : Nat) : Txt := encodeRune (x : Int) ++ if y = 0 then [] else encodeRune (y : Int)
theorem fl_zero (y : Nat) (h : y < 2 ^ 53) : (FloatKind.f64.format.order (fl y) 0 == some .eq) = decide (y = 0) := by
  have h0 : FloatKind.f64.format.order (fl y) 0 = some (compare y 0) := by
    have := fl_order y 0 h (by omega)
    rwa [fl_0] at this
  rw [h0]
  by_cases e : y = 0
  · subst e; decide
  · rw [Nat.compare_eq_gt.2 (by omega), decide_eq_false e]; rfl
theorem op_toInt (n : Nat) (hn : n < 2 ^ 53) (w : World) : (convert 63 3 (.float .f64 (fl n))).run Tryd.prog w = .ok (.int .i64 (n : Int)) w :=
  run_convert_float_int w 63 3 .f64 .i64 (fl n) n (by rw [Tryd.underlying63]; rfl) Tryd.underlying3 (fl_int n hn)

set_option maxHeartbeats 4000000 in
set_option maxRecDepth 1000000 in
theorem text_any (x y : Nat) (w : World) (hx : x < 2 ^ 53) (hy : y < 2 ^ 53) :
    Calls Tryd.prog 25 #[.complex .f64 (fl x) (fl y)] w fun e w' => e = .returned (.string ⟨(textL x y).toArray⟩) ∧ w = w' := by
  have hz := fl_zero y hy
  have h1 := op_toInt x hx
  have h2 := op_toInt y hy
  have HX := fun w => Lib.hid (sgn_any (x : Int) w)
  have HY := fun w => Lib.hid (sgn_any (y : Int) w)
  obtain ⟨A, hA⟩ : ∃ A : ByteArray, ⟨(encodeRune (x : Int)).toArray⟩ = A := ⟨_, rfl⟩
  obtain ⟨B, hB⟩ : ∃ B : ByteArray, ⟨(encodeRune (y : Int)).toArray⟩ = B := ⟨_, rfl⟩
  rw [hA] at HX
  rw [hB] at HY
  obtain ⟨X, hX⟩ : ∃ X, fl x = X := ⟨_, rfl⟩
  obtain ⟨Y, hY⟩ : ∃ Y, fl y = Y := ⟨_, rfl⟩
  rw [hX] at h1 ⊢
  rw [hY] at h2 hz ⊢
  have hAs : A.size < 8 := by rw [← hA, Lib.size_eq, List.toList_toArray]; have := enc_len (x : Int); have := enc_len (y : Int); omega
  have hBs : B.size < 8 := by rw [← hB, Lib.size_eq, List.toList_toArray]; have := enc_len (x : Int); have := enc_len (y : Int); omega
  have hAB : ¬ 9223372036854775807 < A.size + B.size := by omega
  obtain ⟨R, hR⟩ : ∃ R : ByteArray, ⟨(textL x y).toArray⟩ = R := ⟨_, rfl⟩
  have HR : Hid (R = if y = 0 then A else A ++ B) := Lib.hid (by
    rw [← hR, ← hA, ← hB]
    by_cases h : y = 0
    · rw [if_pos h]; congr 1; unfold textL; rw [if_pos h, List.append_nil]
    · rw [if_neg h]; refine str_ext ?_; unfold textL; rw [if_neg h, ByteArray.data_append, Array.toList_append])
  rw [hR]
  clear hA hB hX hY hR
  by_cases h : y = 0
  · rw [decide_eq_true h] at hz
    rw [if_pos h] at HR
    clear h hx hy HY h2 hBs hAB
    go_enter Tryd.func25, Tryd.ntmps25
    go_wp2_with (go_at_call 36; refine (HX _).out.mono ?_; rintro e w' ⟨rfl, rfl⟩)
    go_ret
    exact ⟨ret_str HR.out.symm, rfl⟩
  · rw [decide_eq_false h] at hz
    rw [if_neg h] at HR
    clear h hx hy
    go_enter Tryd.func25, Tryd.ntmps25
    go_wp2_with (fail)
    refine (HX _).out.mono ?_
    rintro e w1 ⟨rfl, rfl⟩
    go_wp2_with (fail)
    refine (HY _).out.mono ?_
    rintro e w1 ⟨rfl, rfl⟩
    go_wp2
    go_ret
    exact ⟨ret_str HR.out.symm, rfl⟩
end Go.Proofs.YtdpgdcbclgdjaaaDoor
