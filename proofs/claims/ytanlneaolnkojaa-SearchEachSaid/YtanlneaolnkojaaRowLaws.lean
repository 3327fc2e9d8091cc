/-
  The document's Line and Longest, over sorted lists.
-/
import Derived.Test.YtanlneaolnkojaaRowRows
namespace Go.Proofs.Ytanlneaolnkojaa
open Go.RowKit Go.Lib

set_option maxRecDepth 100000 in
set_option maxHeartbeats 1000000 in
theorem refLine_any (t key : ByteArray) (rs : List Ln) (w : World) (hs : t.size ≤ 1099511627776) (ht : t.data.toList = flatL rs) (hv : Valid rs) :
    Calls Try.prog 11 #[.string t, .string key] w fun e w' => e = .returned (.tuple #[strV ((lookL rs key.data.toList).getD []), .bool (lookL rs key.data.toList).isSome]) ∧ Below w.heap.size w w' := by
  have HR := fun w => Lib.hid (rows_any t w hs)
  rw [ht, rowsL_flat rs hv] at HR
  obtain ⟨V, hV⟩ : ∃ V, lookL rs key.data.toList = V := ⟨_, rfl⟩
  rw [hV]
  have HV := Lib.hid hV
  clear hV ht
  go_enter Try.func11, Try.ntmps11
  go_wp2_with (fail)
  refine (HR _).out.mono ?_
  rintro e w1 ⟨a, cap, rfl, hr, hb⟩
  have hmx := hr.2.2.1
  have hnc := hr.2.1
  have HRR := Lib.hid hr
  clear hr HR
  obtain ⟨n, hn⟩ : ∃ n, rs.length = n := ⟨_, rfl⟩
  rw [hn] at hnc
  simp only [hn]
  unfold maxLen at hmx
  go_wp2
  go_loopw [7] (fun v wr => ∃ (i : Nat), v = .int .i64 (i : Int) ∧ w1 = wr ∧ i ≤ n ∧ ∀ k (h : k < rs.length), k < i → rs[k].1 ≠ key.data.toList) (fun v _ => n - (intOf v).toNat)
  case atStart => exact ⟨0, rfl, rfl, Nat.zero_le _, fun k _ h => by omega⟩
  case round =>
    obtain ⟨i, rfl, rfl, hi, hno⟩ := hrel
    have HNO := Lib.hid hno
    clear hno
    by_cases hlt : i < n
    · obtain ⟨x, rfl, hc0, hc1⟩ := HRR.out.2.2.2 i (by omega)
      rw [add_succ] at hc1
      obtain ⟨r, hr⟩ : ∃ r, rs[i]'(by omega) = r := ⟨_, rfl⟩
      rw [hr] at hc0 hc1
      have hg := hv.1 _ (List.getElem_mem (show i < rs.length by omega))
      rw [hr] at hg
      have HLA := Lib.hid (lookL_at hv i (by omega))
      rw [hr] at HLA
      have HRI := Lib.hid hr
      clear hr
      unfold strV at hc0 hc1
      by_cases he : r.1 = key.toList
      · have b1 : (r.1 == key.toList) = true := by simpa using he
        have b2 : key.toList.isEmpty = false := by
          cases hk : key.toList with
          | nil => rw [hk] at he; exact absurd he hg.1
          | cons c l => rfl
        obtain rfl : V = some r.2 := by
          rw [← HV.out, ← ByteArray.toList_eq, ← he]; exact HLA.out
        clear he hg
        go_wp2
        go_ret2
        exact ⟨rfl, hb⟩
      · have b1 : (r.1 == key.toList) = false := by simpa using he
        have HE := Lib.hid he
        clear he hg
        go_wp2
        refine ⟨⟨i + 1, by simp, trivial, by omega, fun k hk hki => ?_⟩, by simp [intOf]; omega⟩
        by_cases hk2 : k < i
        · exact HNO.out k hk hk2
        · obtain rfl : k = i := by omega
          rw [HRI.out, ← ByteArray.toList_eq]; exact HE.out
    · obtain rfl : V = none := by
        rw [← HV.out]
        refine lookL_none rs _ fun r hr => ?_
        obtain ⟨k, hk, rfl⟩ := List.getElem_of_mem hr
        exact HNO.out k hk (by omega)
      go_wp2
      go_ret2
      exact ⟨rfl, hb⟩

def bestF (S : Txt) (b : Nat) (r : Ln) : Nat := if r.1.isPrefixOf S ∧ b < r.1.length then r.1.length else b
theorem bestL_fold (rs : List Ln) (S : Txt) : bestL rs S = rs.foldl (bestF S) 0 := rfl
theorem best_far (s : Txt) (a : Nat) (m : Int) (b : Nat) (r : Ln) (hp : 0 < r.1.length) (h : r.1.length ≤ b ∨ m < (r.1.length : Int) ∨ s.length < a + r.1.length) : bestF (winL s a m) b r = b := by
  unfold bestF
  refine if_neg ?_
  rintro ⟨h1, h2⟩
  have h3 := (List.isPrefixOf_iff_prefix.1 h1).length_le
  unfold winL at h3
  split at h3
  · rw [List.length_nil] at h3; omega
  · rw [List.length_take, List.length_drop] at h3; omega
theorem best_near (s : Txt) (a : Nat) (m : Int) (b : Nat) (r : Ln) (h1 : b < r.1.length) (h2 : (r.1.length : Int) ≤ m) : bestF (winL s a m) b r = if (s.drop a).take r.1.length = r.1 then r.1.length else b := by
  have e : r.1.isPrefixOf (winL s a m) = true ↔ (s.drop a).take r.1.length = r.1 := by
    rw [List.isPrefixOf_iff_prefix, List.prefix_iff_eq_take]
    unfold winL
    rw [if_neg (by omega), List.take_take, show min r.1.length m.toNat = r.1.length by omega, show ((a : Nat) : Int).toNat = a by omega]
    exact eq_comm
  unfold bestF
  by_cases h : (s.drop a).take r.1.length = r.1
  · rw [if_pos ⟨e.2 h, h1⟩, if_pos h]
  · rw [if_neg (fun x => h (e.1 x.1)), if_neg h]

set_option maxRecDepth 100000 in
set_option maxHeartbeats 2000000 in
theorem refLongest_any (t s : ByteArray) (a m : Int) (rs : List Ln) (w : World) (hs : t.size ≤ 1099511627776) (hs2 : s.size ≤ 1099511627776) (ha : -9223372036854775808 ≤ a ∧ a ≤ 9223372036854775807) (hm : -9223372036854775808 ≤ m ∧ m ≤ 9223372036854775807) (ht : t.data.toList = flatL rs) (hv : Valid rs) :
    Calls Try.prog 13 #[.string t, .string s, .int .i64 a, .int .i64 m] w fun e w' => e = .returned (.int .i64 (bestL rs (winL s.data.toList a m) : Int)) ∧ Below w.heap.size w w' := by
  by_cases h1 : a < 0
  · have HZ := Lib.hid (show bestL rs (winL s.data.toList a m) = 0 by rw [win_none s a m (.inl h1), best_nil])
    rw [HZ.out]
    clear HZ ht hv
    go_enter Try.func13, Try.ntmps13
    go_wp2
    go_ret
    exact ⟨rfl, Below.refl _ _⟩
  by_cases h2 : (s.size : Int) < a
  · have HZ := Lib.hid (show bestL rs (winL s.data.toList a m) = 0 by rw [win_none s a m (.inr (.inl (by omega))), best_nil])
    rw [HZ.out]
    clear HZ ht hv
    go_enter Try.func13, Try.ntmps13
    go_wp2
    go_ret
    exact ⟨rfl, Below.refl _ _⟩
  obtain ⟨k, rfl⟩ : ∃ k : Nat, a = k := ⟨a.toNat, by omega⟩
  have hk : k ≤ s.size := by omega
  have HR := fun w => Lib.hid (rows_any t w hs)
  rw [ht, rowsL_flat rs hv] at HR
  obtain ⟨T, hT⟩ : ∃ T, bestL rs (winL s.data.toList k m) = T := ⟨_, rfl⟩
  rw [hT]
  have HT : Hid ((rs.drop 0).foldl (bestF (winL s.data.toList k m)) 0 = T) := Lib.hid (by rw [← hT]; rfl)
  clear hT ht
  go_enter Try.func13, Try.ntmps13
  go_wp2_with (fail)
  refine (HR _).out.mono ?_
  rintro e w1 ⟨a, cap, rfl, hr, hb⟩
  have hmx := hr.2.2.1
  have hnc := hr.2.1
  have HRR := Lib.hid hr
  clear hr HR
  obtain ⟨n, hn⟩ : ∃ n, rs.length = n := ⟨_, rfl⟩
  rw [hn] at hnc
  simp only [hn]
  unfold maxLen at hmx
  go_wp2
  go_loopw [10, 11] (fun v10 v11 wr => ∃ (b i q : Nat), v10 = .int .i64 (b : Int) ∧ v11 = .int .i64 (i : Int) ∧ wr = w1.drewN q ∧ i ≤ n ∧ b ≤ s.size ∧ (rs.drop i).foldl (bestF (winL s.data.toList k m)) b = T) (fun _ v _ => n - (intOf v).toNat)
  case atStart => exact ⟨0, 0, 0, rfl, rfl, rfl, Nat.zero_le _, Nat.zero_le _, HT.out⟩
  case round =>
    obtain ⟨b, i, q, rfl, rfl, rfl, hi, hbs, hT⟩ := hrel
    have HTT := Lib.hid hT
    clear hT HT
    by_cases hlt : i < n
    · obtain ⟨x, rfl, hc0, _⟩ := HRR.out.2.2.2 i (by omega)
      obtain ⟨r, hr⟩ : ∃ r, rs[i]'(by omega) = r := ⟨_, rfl⟩
      rw [hr] at hc0
      have hp := (hv.1 _ (List.getElem_mem (show i < rs.length by omega))).pos
      rw [hr] at hp
      have HD := Lib.hid (show (rs.drop (i + 1)).foldl (bestF (winL s.data.toList k m)) (bestF (winL s.data.toList k m) b r) = T by
        have := HTT.out
        rwa [List.drop_eq_getElem_cons (by omega), List.foldl_cons, hr] at this)
      clear hr HTT
      unfold strV at hc0
      have hc0' : (w1.drewN q).cell? (x.add (i * 2)) = some (.string ⟨r.1.toArray⟩) := hc0
      by_cases q1 : r.1.length ≤ b
      · have HF := Lib.hid (best_far s.data.toList k m b r hp (.inl q1))
        have d1 : decide ((r.1.length : Int) ≤ (b : Int)) = true := decide_eq_true (by omega)
        go_wp2
        exact ⟨⟨b, i + 1, q, rfl, by simp, rfl, by omega, hbs, by have := HD.out; rwa [HF.out] at this⟩, by simp [intOf]; omega⟩
      have d1 : decide ((r.1.length : Int) ≤ (b : Int)) = false := decide_eq_false (by omega)
      by_cases q2 : m < (r.1.length : Int)
      · have HF := Lib.hid (best_far s.data.toList k m b r hp (.inr (.inl q2)))
        have d2 : decide (m < (r.1.length : Int)) = true := decide_eq_true (by omega)
        go_wp2
        exact ⟨⟨b, i + 1, q, rfl, by simp, rfl, by omega, hbs, by have := HD.out; rwa [HF.out] at this⟩, by simp [intOf]; omega⟩
      have d2 : decide (m < (r.1.length : Int)) = false := decide_eq_false (by omega)
      by_cases q3 : s.size < k + r.1.length
      · have HF := Lib.hid (best_far s.data.toList k m b r hp (.inr (.inr (by rw [← Lib.size_eq]; exact q3))))
        have d3 : decide ((s.size : Int) - (k : Int) < (r.1.length : Int)) = true := decide_eq_true (by omega)
        go_wp2
        exact ⟨⟨b, i + 1, q, rfl, by simp, rfl, by omega, hbs, by have := HD.out; rwa [HF.out] at this⟩, by simp [intOf]; omega⟩
      have d3 : decide ((s.size : Int) - (k : Int) < (r.1.length : Int)) = false := decide_eq_false (by omega)
      have hF := best_near s.data.toList k m b r (by omega) (by omega)
      have hex : (s.extract k (k + r.1.length)).data.toList = (s.data.toList.drop k).take r.1.length := by
        rw [extract_data]; congr 1; omega
      rw [← hex] at hF
      have e1 : (0 : Int) ≤ (k : Int) + (r.1.length : Int) := by omega
      have e2 : (k : Int) + (r.1.length : Int) ≤ (s.size : Int) := by omega
      have e3 : IntKind.i64.wrap ((k : Int) + (r.1.length : Int)) = (k : Int) + (r.1.length : Int) := by rw [IntKind.wrap_i64]; omega
      have e4 : ((k : Int) + (r.1.length : Int)).toNat = k + r.1.length := by omega
      have e5 : (k : Int) ≤ (k : Int) + (r.1.length : Int) := by omega
      by_cases he : (s.extract k (k + r.1.length)).data.toList = r.1
      · have b1 : ((s.extract k (k + r.1.length)).toList == r.1) = true := by rw [ByteArray.toList_eq, beq_iff_eq]; exact he
        rw [if_pos he] at hF
        have HF := Lib.hid hF
        clear he hF hex
        go_wp2
        go_quiet (fail)
        go_wp2
        exact ⟨⟨r.1.length, i + 1, _, rfl, by simp, rfl, by omega, by omega, by have := HD.out; rwa [HF.out] at this⟩, by simp [intOf]; omega⟩
      · have b1 : ((s.extract k (k + r.1.length)).toList == r.1) = false := by rw [ByteArray.toList_eq, beq_eq_false_iff_ne]; exact he
        rw [if_neg he] at hF
        have HF := Lib.hid hF
        clear he hF hex
        go_wp2
        go_quiet (fail)
        go_wp2
        exact ⟨⟨b, i + 1, _, rfl, by simp, rfl, by omega, hbs, by have := HD.out; rwa [HF.out] at this⟩, by simp [intOf]; omega⟩
    · obtain rfl : b = T := by
        have := HTT.out
        rwa [List.drop_eq_nil_of_le (by omega)] at this
      go_wp2
      go_ret
      exact ⟨rfl, hb.trans ((dr_below _ w1 q).mono hb.size)⟩

def rs0 : List Ln := [([97, 98], [49]), ([97, 98, 99], [50])]
theorem rs0_valid : Valid rs0 := by
  refine ⟨fun r hr => ?_, ?_⟩
  · simp only [rs0, List.mem_cons, List.not_mem_nil, or_false] at hr
    rcases hr with rfl | rfl <;> (unfold Good; decide)
  · unfold rs0
    rw [List.pairwise_cons]
    refine ⟨fun x hx => ?_, List.pairwise_singleton _ _⟩
    rw [List.mem_singleton] at hx; subst hx
    decide

set_option maxRecDepth 100000 in
set_option maxHeartbeats 1000000 in
theorem awake_any (w : World) : Calls Try.prog 8 #[] w fun e w' => e = .returned (.bool true) ∧ Below w.heap.size w w' := by
  have H1 := fun w => Lib.hid (line_any ⟨#[97, 98, 32, 49, 10, 97, 98, 99, 32, 50]⟩ ⟨#[97, 98, 99]⟩ rs0 w (by decide) (by decide) rs0_valid)
  have H2 := fun w => Lib.hid (line_any ⟨#[97, 98, 32, 49, 10, 97, 98, 99, 32, 50]⟩ ⟨#[97, 98, 99, 100]⟩ rs0 w (by decide) (by decide) rs0_valid)
  have H3 := fun w => Lib.hid (longest_any ⟨#[97, 98, 32, 49, 10, 97, 98, 99, 32, 50]⟩ ⟨#[120, 97, 98, 99, 100]⟩ 1 9 rs0 w (by decide) (by decide) (by decide) (by decide) rs0_valid)
  have e1 : lookL rs0 [97, 98, 99] = some [50] := by decide
  have e2 : lookL rs0 [97, 98, 99, 100] = none := by decide
  have e3 : bestL rs0 (winL [120, 97, 98, 99, 100] 1 9) = 3 := by decide
  simp only [e1, e2, e3] at H1 H2 H3
  clear e1 e2 e3
  unfold strV at *
  simp only [Option.getD_some, Option.getD_none, Option.isSome_some, Option.isSome_none] at H1 H2
  go_enter Try.func8, Try.ntmps8
  go_wp2_with (fail)
  refine (H1 _).out.mono ?_
  rintro e w1 ⟨rfl, b1⟩
  go_wp2_with (fail)
  refine (H2 _).out.mono ?_
  rintro e w2 ⟨rfl, b2⟩
  go_wp2_with (fail)
  refine (H3 _).out.mono ?_
  rintro e w3 ⟨rfl, n, rfl⟩
  go_wp2
  go_ret
  have hs1 := b1.size
  exact ⟨rfl, (b1.trans (b2.mono hs1)).trans (dr_below _ _ _)⟩

end Go.Proofs.Ytanlneaolnkojaa
