/-
  The document's numbers written with ten digits, for every number that fits 32 bits.
-/
import Derived.Test.YtionbaedddnggaaDoorNumList
namespace Go.Proofs.YtionbaedddnggaaDoor
open Go.RowKit Go.Lib

theorem decS_small (n : Nat) (h : n < 10) : decS n = ⟨#[digB n]⟩ := by unfold decS; rw [decL_small n h]
theorem decS_more (n : Nat) (h : ¬ n < 10) : decS n = decS (n / 10) ++ ⟨#[digB (n % 10)]⟩ := by
  refine str_ext ?_
  rw [ByteArray.data_append, Array.toList_append, decS_list, decS_list, decL_more n h]
theorem decS_bound (n : Nat) : (decS n).size ≤ n + 1 := by rw [decS_size]; exact (decL_dig n n (Nat.le_refl _)).2.2.1

set_option maxRecDepth 100000 in
set_option maxHeartbeats 1000000 in
theorem decimal : ∀ (m n : Nat) (w : World), n ≤ m → n ≤ 4294967295 →
    Calls Tryd.prog 16 #[.int .i64 (n : Int)] w fun e w' => e = .returned (.string (decS n)) ∧ Below w.heap.size w w'
  | m, n, w, hm, hn => by
    have hlt : n % 10 < 10 := Nat.mod_lt _ (by decide)
    have hc := digB_int (n % 10) hlt
    have HC : Hid ((((digB (n % 10)).toNat : Nat) : Int) = 48 + (n : Int) % 10) := Lib.hid (by rw [hc]; omega)
    clear hc hlt
    obtain ⟨c, hcc⟩ : ∃ c, digB (n % 10) = c := ⟨_, rfl⟩
    rw [hcc] at HC
    have i0 : 0 ≤ (n : Int) % 10 := Int.emod_nonneg _ (by decide)
    have i1 : (n : Int) % 10 < 10 := Int.emod_lt_of_pos _ (by decide)
    by_cases h : n < 10
    · have HS : Hid (decS n = ⟨#[c]⟩) := Lib.hid (by rw [decS_small n h, ← hcc, Nat.mod_eq_of_lt h])
      have h' : (n : Int) < 10 := by omega
      clear hcc
      go_enter Tryd.func16, Tryd.ntmps16
      go_wp2
      rw [oneByte _ _ _ HC.out]
      simp only [Result.andThen]
      rw [Oper.upon_value]
      go_wp2
      go_ret
      exact ⟨ret_str HS.out.symm, (Below.refl _ w).alloc (Nat.le_refl _) _⟩
    · cases m with
      | zero => omega
      | succ m =>
        have HS : Hid (decS n = decS (n / 10) ++ ⟨#[c]⟩) := Lib.hid (by rw [decS_more n h, ← hcc])
        have h' : ¬ (n : Int) < 10 := by omega
        have hb := decS_bound (n / 10)
        have hz : (ByteArray.mk #[c]).size = 1 := rfl
        have hsum : ¬ 9223372036854775807 < (decS (n / 10)).size + (ByteArray.mk #[c]).size := by rw [hz]; omega
        have HI : Hid (∀ w : World, Calls Tryd.prog 16 #[.int .i64 ((n : Int) / 10)] w fun e w' => e = .returned (.string (decS (n / 10))) ∧ Below w.heap.size w w') := Lib.hid (fun w => by
          have := decimal m (n / 10) w (by omega) (by omega)
          rwa [show ((n / 10 : Nat) : Int) = (n : Int) / 10 by omega] at this)
        clear hcc hz hb
        go_enter Tryd.func16, Tryd.ntmps16
        go_wp2
        rw [oneByte _ _ _ HC.out]
        simp only [Result.andThen]
        rw [Oper.upon_value]
        go_wp2_with (fail)
        refine (HI.out _).mono ?_
        rintro e w1 ⟨rfl, hb1⟩
        go_wp2
        go_ret
        exact ⟨ret_str HS.out.symm, ((Below.refl _ w).alloc (Nat.le_refl _) _).trans (hb1.mono (by simp))⟩

end Go.Proofs.YtionbaedddnggaaDoor
