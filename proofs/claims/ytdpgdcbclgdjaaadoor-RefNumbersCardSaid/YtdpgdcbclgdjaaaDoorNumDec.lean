/-
  The document's numbers written with ten digits, for every number that fits 32 bits.
-/
import Derived.Test.YtdpgdcbclgdjaaaDoorNumList
import Derived.Laws.BitsAllLaws
namespace Go.Proofs.YtdpgdcbclgdjaaaDoor
open Go.RowKit Go.Lib

theorem decS_small (n : Nat) (h : n < 10) : decS n = ⟨#[digB n]⟩ := by unfold decS; rw [decL_small n h]
theorem decS_more (n : Nat) (h : ¬ n < 10) : decS n = decS (n / 10) ++ ⟨#[digB (n % 10)]⟩ := by
  refine str_ext ?_
  rw [ByteArray.data_append, Array.toList_append, decS_list, decS_list, decL_more n h]
theorem decS_bound (n : Nat) : (decS n).size ≤ n + 1 := by rw [decS_size]; exact (decL_dig n n (Nat.le_refl _)).2.2.1

set_option maxRecDepth 100000 in
set_option maxHeartbeats 1000000 in
theorem decimal : ∀ (m n : Nat) (w : World), n ≤ m → n ≤ 4294967295 →
    Calls Tryd.prog 16 #[.int .i64 (n : Int)] w fun e w' => e = .returned (.string (decS n)) ∧ Below w.heap.size w w'
  | m, n, w, hm, hn => by
    have hlt : n % 10 < 10 := Nat.mod_lt _ (by decide)
    have hc := digB_int (n % 10) hlt
    have HC : Hid ((((digB (n % 10)).toNat : Nat) : Int) = 48 + (n : Int) % 10) := Lib.hid (by rw [hc]; omega)
    clear hc hlt
    obtain ⟨c, hcc⟩ : ∃ c, digB (n % 10) = c := ⟨_, rfl⟩
    rw [hcc] at HC
    have i0 : 0 ≤ (n : Int) % 10 := Int.emod_nonneg _ (by decide)
    have i1 : (n : Int) % 10 < 10 := Int.emod_lt_of_pos _ (by decide)
    by_cases h : n < 10
    · have HS : Hid (decS n = ⟨#[c]⟩) := Lib.hid (by rw [decS_small n h, ← hcc, Nat.mod_eq_of_lt h])
      have h' : (n : Int) < 10 := by omega
      clear hcc
      go_enter Tryd.func16, Tryd.ntmps16
      go_wp2
      rw [oneByte _ _ _ HC.out]
      simp only [Result.andThen]
      rw [Oper.upon_value]
      go_wp2
      go_ret
      exact ⟨ret_str HS.out.symm, (Below.refl _ w).alloc (Nat.le_refl _) _⟩
    · cases m with
      | zero => omega
      | succ m =>
        have HS : Hid (decS n = decS (n / 10) ++ ⟨#[c]⟩) := Lib.hid (by rw [decS_more n h, ← hcc])
        have h' : ¬ (n : Int) < 10 := by omega
        have hb := decS_bound (n / 10)
        have hz : (ByteArray.mk #[c]).size = 1 := rfl
        have hsum : ¬ 9223372036854775807 < (decS (n / 10)).size + (ByteArray.mk #[c]).size := by rw [hz]; omega
        have HI : Hid (∀ w : World, Calls Tryd.prog 16 #[.int .i64 ((n : Int) / 10)] w fun e w' => e = .returned (.string (decS (n / 10))) ∧ Below w.heap.size w w') := Lib.hid (fun w => by
          have := decimal m (n / 10) w (by omega) (by omega)
          rwa [show ((n / 10 : Nat) : Int) = (n : Int) / 10 by omega] at this)
        clear hcc hz hb
        go_enter Tryd.func16, Tryd.ntmps16
        go_wp2
        rw [oneByte _ _ _ HC.out]
        simp only [Result.andThen]
        rw [Oper.upon_value]
        go_wp2_with (fail)
        refine (HI.out _).mono ?_
        rintro e w1 ⟨rfl, hb1⟩
        go_wp2
        go_ret
        exact ⟨ret_str HS.out.symm, ((Below.refl _ w).alloc (Nat.le_refl _) _).trans (hb1.mono (by simp))⟩


/-- the digits of sixteen, small and large -/
def lowHex : ByteArray := ⟨#[48, 49, 50, 51, 52, 53, 54, 55, 56, 57, 97, 98, 99, 100, 101, 102]⟩
def upHex : ByteArray := ⟨#[48, 49, 50, 51, 52, 53, 54, 55, 56, 57, 65, 66, 67, 68, 69, 70]⟩
theorem lowHex_at : ∀ d : Fin 16, hexI ((lowHex[d.val]'d.isLt).toNat : Int) = (d.val : Int) := by decide
theorem upHex_at : ∀ d : Fin 16, hexI ((upHex[d.val]'d.isLt).toNat : Int) = (d.val : Int) := by decide
/-- so many digits of a number of 32 bits are written -/
def HexP (n j : Nat) (A : ByteArray) : Prop := A.size = j ∧ (∀ c ∈ A.data.toList, isDig 16 c = true) ∧ valD 16 A.data.toList = capN (n / 2 ^ (32 - 4 * j))
theorem hexP_0 (n : Nat) (h : n < 4294967296) : HexP n 0 ⟨#[]⟩ := by
  have e : n / 2 ^ (32 - 4 * 0) = 0 := Nat.div_eq_of_lt h
  refine And.intro rfl (And.intro (fun c (hc : c ∈ ([] : List UInt8)) => absurd hc List.not_mem_nil) ?_)
  rw [e]; rfl
theorem hexP_step (n j k : Nat) (A lit : ByteArray) (hj : j < 8) (hk : k = 28 - 4 * j) (hs : lit.size = 16) (hl : ∀ d : Fin 16, hexI ((lit[d.val]'(by rw [hs]; exact d.isLt)).toNat : Int) = (d.val : Int)) (h : HexP n j A) :
    HexP n (j + 1) (A ++ lit.extract (n / 2 ^ k % 16) (n / 2 ^ k % 16 + 1)) := by
  obtain ⟨h1, h2, h3⟩ := h
  have hd : n / 2 ^ k % 16 < 16 := Nat.mod_lt _ (by decide)
  have hd' : n / 2 ^ k % 16 < lit.size := by rw [hs]; exact hd
  have hx := hl ⟨n / 2 ^ k % 16, hd⟩
  have e : (A ++ lit.extract (n / 2 ^ k % 16) (n / 2 ^ k % 16 + 1)).data.toList = A.data.toList ++ [lit[n / 2 ^ k % 16]] := by
    rw [ByteArray.data_append, Array.toList_append, extract_one lit _ hd']
  refine ⟨?_, ?_, ?_⟩
  · rw [Lib.size_eq, e, List.length_append, List.length_singleton, ← Lib.size_eq, h1]
  · rw [e]
    intro c hc
    rcases List.mem_append.1 hc with hc | hc
    · exact h2 c hc
    · rw [List.mem_singleton.1 hc]; exact dig_yes 16 _ _ hx hd
  · rw [e, valD_snoc, h3, stepN_cap 16 _ _ _ (by decide) hx]
    congr 1
    have e2 : n / 2 ^ (32 - 4 * j) = n / 2 ^ k / 16 := by
      rw [show (32 - 4 * j : Nat) = k + 4 by omega, Nat.pow_add, ← Nat.div_div_eq_div_mul]
    show n / 2 ^ (32 - 4 * j) * 16 + n / 2 ^ k % 16 = _
    rw [e2, show 32 - 4 * (j + 1) = k by omega]
    omega
theorem hexP_val (n j : Nat) (A : ByteArray) (hj : j = 8) (h : HexP n j A) : valD 16 A.data.toList = capN n := by
  subst hj
  have := h.2.2
  rwa [show 32 - 4 * 8 = 0 from rfl, Nat.pow_zero, Nat.div_one] at this

theorem hexD (n k : Nat) (hn : n < 4294967296) : bits .and .u32 ((n : Int) / 2 ^ k) 15 = ((n / 2 ^ k % 16 : Nat) : Int) := by
  have e : (n : Int) / 2 ^ k = ((n / 2 ^ k : Nat) : Int) := by rw [Int.natCast_ediv, Int.natCast_pow]; rfl
  rw [e, show (15 : Int) = ((15 : Nat) : Int) from rfl, u32_and_nat _ 15 (Nat.lt_of_le_of_lt (Nat.div_le_self _ _) hn) (by decide), show n / 2 ^ k &&& 15 = n / 2 ^ k % 16 from Nat.and_two_pow_sub_one_eq_mod _ 4]
theorem hex_one (lit : ByteArray) (d : Nat) (h : lit.size = 16) (hd : d < 16) : (lit.extract d (d + 1)).size = 1 := by
  rw [ByteArray.size_extract]; omega

theorem digs_self (b : Nat) (D : List UInt8) (hD : ∀ c ∈ D, isDig b c = true) : digs b D = D := by
  have := digs_tail b D [] hD (.inl rfl)
  rwa [List.append_nil] at this
theorem hex_reads (n j : Nat) (A : ByteArray) (hj : j = 8) (h : HexP n j A) :
    txtR (⟨#[35, 120]⟩ ++ A ++ ⟨#[59]⟩ : ByteArray).data.toList 0 = fixS (capN n : Nat) ∧ nxtR (⟨#[35, 120]⟩ ++ A ++ ⟨#[59]⟩ : ByteArray).data.toList 0 = 11 ∧ isRef (⟨#[35, 120]⟩ ++ A ++ ⟨#[59]⟩ : ByteArray).data.toList 0 = true ∧ valI true A.data.toList = (capN n : Nat) := by
  have hv := hexP_val n j A hj h
  obtain ⟨h1, h2, h3⟩ := h
  have hl : A.data.toList.length = 8 := by rw [← Lib.size_eq]; omega
  have hne : A.data.toList ≠ [] := fun e => by rw [e] at hl; cases hl
  obtain ⟨r1, r2, r3⟩ := ref_hex 120 A.data.toList [59] (.inl rfl) h2 hne (.inr ⟨_, _, rfl, dig_59.2.1⟩)
  have e : (⟨#[35, 120]⟩ ++ A ++ ⟨#[59]⟩ : ByteArray).data.toList = 35 :: 120 :: (A.data.toList ++ [59]) := by
    simp only [ByteArray.data_append, Array.toList_append]; simp
  rw [e]
  refine ⟨by rw [r1, hv], by rw [r2, hl]; rfl, r3, ?_⟩
  rw [valI_digs true _ (digs_self 16 _ h2) hne]
  exact congrArg Int.ofNat hv
theorem hex_reads2 (n j : Nat) (A : ByteArray) (hj : j = 8) (h : HexP n j A) :
    txtR (⟨#[35, 88]⟩ ++ A : ByteArray).data.toList 0 = fixS (capN n : Nat) ∧ nxtR (⟨#[35, 88]⟩ ++ A : ByteArray).data.toList 0 = 10 ∧ isRef (⟨#[35, 88]⟩ ++ A : ByteArray).data.toList 0 = true := by
  have hv := hexP_val n j A hj h
  obtain ⟨h1, h2, h3⟩ := h
  have hl : A.data.toList.length = 8 := by rw [← Lib.size_eq]; omega
  have hne : A.data.toList ≠ [] := fun e => by rw [e] at hl; cases hl
  obtain ⟨r1, r2, r3⟩ := ref_hex 88 A.data.toList [] (.inr rfl) h2 hne (.inl rfl)
  have e : (⟨#[35, 88]⟩ ++ A : ByteArray).data.toList = 35 :: 88 :: (A.data.toList ++ []) := by
    simp only [ByteArray.data_append, Array.toList_append]; simp
  rw [e]
  exact ⟨by rw [r1, hv], by rw [r2, hl]; rfl, r3⟩
theorem dec_reads (n : Nat) :
    txtR (⟨#[35]⟩ ++ decS n : ByteArray).data.toList 0 = fixS (capN n : Nat) ∧ nxtR (⟨#[35]⟩ ++ decS n : ByteArray).data.toList 0 = ((decS n).size : Int) + 1 ∧ isRef (⟨#[35]⟩ ++ decS n : ByteArray).data.toList 0 = true ∧ valI false (decS n).data.toList = (capN n : Nat) := by
  obtain ⟨d1, d2, d3, d4⟩ := decL_dig n n (Nat.le_refl _)
  obtain ⟨r1, r2, r3⟩ := ref_ten (decL n) [] d1 d2 (.inl rfl)
  have e : (⟨#[35]⟩ ++ decS n : ByteArray).data.toList = 35 :: (decL n ++ []) := by
    simp only [ByteArray.data_append, Array.toList_append, decS_list]; simp
  rw [e, decS_size]
  refine ⟨by rw [r1, d4], by rw [r2]; rfl, r3, ?_⟩
  rw [decS_list, valI_digs false _ (digs_self 10 _ d1) d2]
  exact congrArg Int.ofNat d4

end Go.Proofs.YtdpgdcbclgdjaaaDoor
