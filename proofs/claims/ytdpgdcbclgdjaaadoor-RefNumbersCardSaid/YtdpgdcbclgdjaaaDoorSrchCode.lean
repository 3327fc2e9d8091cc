/-
  What package search's atMost, alike, Longest and Line answer, for every sorted list.
-/
import Derived.Test.YtdpgdcbclgdjaaaDoorSrchMath
import Derived.Test.YtdpgdcbclgdjaaaDoorSrchLib
import Derived.Test.YtdpgdcbclgdjaaaDoorGoto
namespace Go.Proofs.YtdpgdcbclgdjaaaDoor
open Go.RowKit Go.Lib

theorem less_eq : ∀ (x y : List UInt8), Op.bytesLess x y = decide (x < y)
  | [], [] => by simp [Op.bytesLess]
  | [], b :: y => by simp [Op.bytesLess]
  | a :: x, [] => by simp [Op.bytesLess]
  | a :: x, b :: y => by
    have ih := less_eq x y
    have e : (a :: x < b :: y) ↔ (a < b ∨ a = b ∧ x < y) := List.cons_lt_cons_iff
    unfold Op.bytesLess
    rw [ih, Bool.eq_iff_iff]
    simp only [Bool.or_eq_true, Bool.and_eq_true, decide_eq_true_eq, beq_iff_eq, e]

def strV (l : List UInt8) : Value := .string ⟨l.toArray⟩

/-- the frame at the label -/
def frA (t s : ByteArray) (K R : List UInt8) (a b : Int) (u : Nat → Value) : Act :=
  { tmps := #[.string t, .string s, u 2, u 3, strV K, strV R, .int .i64 a, .int .i64 b, u 8, u 9, u 10, u 11, u 12, u 13, u 14, u 15, u 16, u 17, u 18, u 19, u 20, u 21, u 22, u 23, u 24, u 25, u 26, u 27, u 28, u 29, u 30, u 31, u 32, u 33, u 34, u 35, u 36, u 37, u 38, u 39, u 40, u 41, u 42, u 43, u 44, u 45, u 46, u 47, u 48, u 49, u 50, u 51, u 52, u 53, u 54, u 55, u 56, u 57, u 58, u 59, u 60, u 61, u 62], defers := [] }

set_option maxRecDepth 100000 in
set_option maxHeartbeats 4000000 in
theorem atMost_any (t s : ByteArray) (rs : List Ln) (w : World) (hs : t.size ≤ 1099511627776) (ht : t.data.toList = flatL rs) (hv : Valid rs) :
    Calls Tryd.prog 54 #[.string t, .string s] w fun e w' => e = .returned (.tuple #[strV (keyAt rs (amI rs s.data.toList)), strV (restAt rs (amI rs s.data.toList))]) ∧ ∃ n, w' = w.drewN n := by
  have hts : t.size = (flatL rs).length := by rw [Lib.size_eq, ht]
  obtain ⟨A, hA⟩ : ∃ A, amI rs s.data.toList = A := ⟨_, rfl⟩
  rw [hA]
  have HA := Lib.hid hA
  clear hA
  go_enter Tryd.func54, Tryd.ntmps54
  go_wp2
  refine wp_scope_label 0 (fun a' wr => ∃ (i j n : Nat), a' = frA t s (keyAt rs i) (restAt rs i) (offN rs i : Int) (toN rs j : Int) (fun n => a'.tmps.getD n undef) ∧ wr = w.drewN n ∧ i ≤ j ∧ j ≤ rs.length ∧ (∀ k (hk : k < rs.length), k < i → ¬ s.data.toList < rs[k].1) ∧ (∀ k (hk : k < rs.length), j ≤ k → s.data.toList < rs[k].1))
    (fun a' _ => (intOf (a'.tmps.getD 7 undef)).toNat - (intOf (a'.tmps.getD 6 undef)).toNat) rfl ?_ ?_
  · rintro a' wr ⟨i, j, n, hfr, rfl, hij, hj, hlo, hhi⟩
    obtain ⟨u, rfl⟩ : ∃ u, a' = frA t s (keyAt rs i) (restAt rs i) (offN rs i : Int) (toN rs j : Int) u := ⟨_, hfr⟩
    clear hfr
    unfold frA
    by_cases hend : i = j
    · subst hend
      have h1 := toN_le rs i i (Nat.le_refl _)
      obtain rfl : i = A := (amI_eq s.data.toList i hj hlo hhi).symm.trans HA.out
      clear HA hlo hhi
      go_wp2
      simp only [Exit.jump]
      go_ret2
      exact ⟨rfl, n, rfl⟩
    · have hlt : i < j := by omega
      obtain ⟨a, ha⟩ : ∃ a, offN rs i = a := ⟨_, rfl⟩
      obtain ⟨b, hb⟩ : ∃ b, toN rs j = b := ⟨_, rfl⟩
      have h1 : a < b := by
        have := offN_lt_to rs i j hlt hj
        have := lineL_len (rs[i]'(by omega))
        omega
      have h2 : b ≤ t.size := by rw [hts, ← hb]; exact toN_size rs j
      obtain ⟨k, hik, hkj, hkm, hL⟩ := seek rs hv.1 t ht i j (a + (b - a) / 2) hlt hj (by omega) (by omega)
      have hk : k < rs.length := by omega
      obtain ⟨z, hz, hz2⟩ := line_at rs k j hkj hj
      obtain ⟨c, hc⟩ : ∃ c, offN rs k = c := ⟨_, rfl⟩
      have hac : a ≤ c := by rw [← ha, ← hc]; exact offN_le rs hik
      rw [hc] at hkm hL hz
      rw [ha] at hL
      rw [hb] at hz
      have hcl := offN_lt_to rs k j hkj hj
      rw [hb, hc] at hcl
      have hg := hv.1 _ (List.getElem_mem hk)
      obtain ⟨r, hr⟩ : ∃ r, rs[k] = r := ⟨_, rfl⟩
      rw [hr] at hz hcl hg
      have hlen := lineL_len r
      have hsz1 : (t.extract c b).size ≤ 1099511627776 := by rw [ByteArray.size_extract]; omega
      have HC1 := fun w => Lib.hid (cut_any (t.extract c b) 10 (lineL r) z w hsz1 (by rw [extract_data, ht, ← List.drop_take, hz]) hg.line hz2)
      have HC2 := fun w => Lib.hid (cut_any ⟨(lineL r).toArray⟩ 32 r.1 (32 :: r.2) w (by rw [Lib.size_eq, List.toList_toArray]; omega) rfl hg.2.1 (.inr ⟨_, rfl⟩))
      have HL := Lib.hid hL
      have HSL := Lib.hid (show (⟨(lineL r).toArray⟩ : ByteArray).size = (lineL r).length by rw [Lib.size_eq, List.toList_toArray])
      have Ha := Lib.hid ha
      have Hb := Lib.hid hb
      have Hc := Lib.hid hc
      have Hr := Lib.hid hr
      rw [ha, hb]
      have HLO := Lib.hid hlo
      have HHI := Lib.hid hhi
      have HZ := Lib.hid hz
      have HG := Lib.hid hg
      clear ha hb hc hr hL hz hz2 hg hlo hhi ht hts hsz1
      have hm1 : (t.extract a (a + (b - a) / 2)).size < 4611686018427387904 := by rw [ByteArray.size_extract]; omega
      have e1 : (a : Int) + ((c : Int) - (a : Int) - 1) + 1 = (c : Int) := by omega
      unfold cutV at HC1 HC2
      rcases Std.lt_trichotomy s.data.toList r.1 with h | h | h
      · have b1 : Op.bytesLess r.1 s.toList = false := by rw [less_eq, ByteArray.toList_eq]; exact decide_eq_false (List.lt_asymm h)
        have b2 : (r.1 == s.toList) = false := by rw [ByteArray.toList_eq, beq_eq_false_iff_ne]; intro e; rw [e] at h; exact List.lt_irrefl _ h
        have HLT := Lib.hid h
        clear h
        go_wp2_with (go_at_call 61; refine (Tryd.strings_LastIndexByte _ 10 hm1 _).mono ?_; rintro e w' ⟨rfl, rfl⟩; rw [HL.out])
        refine (HC1 _).out.mono ?_
        rintro e w1 ⟨rfl, n1, rfl⟩
        go_wp2_with (fail)
        refine (HC2 _).out.mono ?_
        rintro e w1 ⟨rfl, n2, rfl⟩
        go_wp2
        go_step3
        refine ⟨rfl, ⟨i, k, n + n1 + n2, ?_, rfl, by omega, by omega, HLO.out, fun q hq hqk => key_rises hv _ k q hk hq hqk (by rw [Hr.out]; exact HLT.out)⟩, ?_⟩
        · rw [toN_at rs k hk, Hc.out, Ha.out]
          rfl
        · simp [intOf]; omega
      · have b2 : (r.1 == s.toList) = true := by rw [ByteArray.toList_eq, beq_iff_eq]; exact h.symm
        have HLT := Lib.hid (show ¬ s.data.toList < r.1 by rw [h]; exact List.lt_irrefl _)
        clear h
        go_wp2_with (go_at_call 61; refine (Tryd.strings_LastIndexByte _ 10 hm1 _).mono ?_; rintro e w' ⟨rfl, rfl⟩; rw [HL.out])
        refine (HC1 _).out.mono ?_
        rintro e w1 ⟨rfl, n1, rfl⟩
        go_wp2_with (fail)
        refine (HC2 _).out.mono ?_
        rintro e w1 ⟨rfl, n2, rfl⟩
        go_wp2
        go_step3
        refine ⟨rfl, ⟨k + 1, j, n + n1 + n2, ?_, rfl, by omega, hj, fun q hq hqk => key_keeps hv _ k q hk (by omega) (by rw [Hr.out]; exact HLT.out), HHI.out⟩, ?_⟩
        · rw [keyAt_succ rs k hk, restAt_succ rs k hk, offN_succ rs k hk, Hr.out, Hb.out, Hc.out, hlen]
          push_cast
          rfl
        · simp [intOf]; omega
      · have b1 : Op.bytesLess r.1 s.toList = true := by rw [less_eq, ByteArray.toList_eq]; exact decide_eq_true h
        have HLT := Lib.hid (List.lt_asymm h)
        clear h
        go_wp2_with (go_at_call 61; refine (Tryd.strings_LastIndexByte _ 10 hm1 _).mono ?_; rintro e w' ⟨rfl, rfl⟩; rw [HL.out])
        refine (HC1 _).out.mono ?_
        rintro e w1 ⟨rfl, n1, rfl⟩
        go_wp2_with (fail)
        refine (HC2 _).out.mono ?_
        rintro e w1 ⟨rfl, n2, rfl⟩
        go_wp2
        go_step3
        refine ⟨rfl, ⟨k + 1, j, n + n1 + n2, ?_, rfl, by omega, hj, fun q hq hqk => key_keeps hv _ k q hk (by omega) (by rw [Hr.out]; exact HLT.out), HHI.out⟩, ?_⟩
        · rw [keyAt_succ rs k hk, restAt_succ rs k hk, offN_succ rs k hk, Hr.out, Hb.out, Hc.out, hlen]
          push_cast
          rfl
        · simp [intOf]; omega
  · intro hpass
    go_wp2
    go_step3
    rename_i K hK
    refine hK _ _ (hpass _ _ ?_)
    exact ⟨0, rs.length, 0, by rw [toN_all, ← hts]; rfl, rfl, Nat.zero_le _, Nat.le_refl _, fun k _ h => by omega, fun k h1 h2 => by omega⟩

end Go.Proofs.YtdpgdcbclgdjaaaDoor
