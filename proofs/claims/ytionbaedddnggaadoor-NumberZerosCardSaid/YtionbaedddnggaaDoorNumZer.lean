/-
  Digits told by small numbers, and zeros ahead of them: plain mathematics for a law.
-/
import Derived.Test.YtionbaedddnggaaDoorNumDec
namespace Go.Proofs.YtionbaedddnggaaDoor
open Go.RowKit Go.Lib

/-- the digits that small numbers tell -/
def digL (zs : List Int) : List UInt8 := zs.map fun q => digB (q % 10).toNat
theorem digL_len (zs : List Int) : (digL zs).length = zs.length := List.length_map _
theorem digL_snoc (zs : List Int) (i : Nat) (h : i < zs.length) : digL (zs.take (i + 1)) = digL (zs.take i) ++ [digB (zs.getD i 0 % 10).toNat] := by
  rw [List.take_succ_eq_append_getElem h, digL, List.map_append, List.getD_eq_getElem?_getD, List.getElem?_eq_getElem h]; rfl
theorem mod_ten (q : Int) : (q % 10).toNat < 10 := by omega
theorem digL_dig (zs : List Int) : ∀ c ∈ digL zs, isDig 10 c = true := by
  intro c hc
  obtain ⟨q, -, rfl⟩ := List.mem_map.1 hc
  exact digB_dig _ (mod_ten q)
theorem fold_cap : ∀ (zs : List Int) (m : Nat), ∃ k, (digL zs).foldl (stepN 10) (capN m) = capN k ∧ m * 10 ^ zs.length ≤ k
  | [], m => ⟨m, rfl, by simp⟩
  | q :: zs, m => by
    obtain ⟨k, h1, h2⟩ := fold_cap zs (m * 10 + (q % 10).toNat)
    refine ⟨k, ?_, ?_⟩
    · rw [← h1]
      show (digL zs).foldl (stepN 10) (stepN 10 (capN m) (digB (q % 10).toNat)) = _
      rw [stepN_cap 10 m _ _ (by decide) (digB_hex _ (mod_ten q))]
    · refine Nat.le_trans ?_ h2
      rw [List.length_cons, Nat.pow_succ, Nat.mul_comm (10 ^ zs.length), ← Nat.mul_assoc]
      exact Nat.mul_le_mul_right _ (Nat.le_add_right _ _)
/-- eight digits and more, the first of them none: more than all signs -/
theorem valD_big (zs : List Int) (h8 : 7 < zs.length) (h0 : zs.getD 0 0 % 10 ≠ 0) : valD 10 (digL zs) = 1114112 := by
  cases zs with
  | nil => exact absurd h8 (by decide)
  | cons q zs =>
    have hq : q % 10 ≠ 0 := h0
    obtain ⟨k, h1, h2⟩ := fold_cap zs (q % 10).toNat
    have e : valD 10 (digL (q :: zs)) = capN k := by
      rw [← h1]
      show (digL zs).foldl (stepN 10) (stepN 10 0 (digB (q % 10).toNat)) = _
      have := stepN_cap 10 0 (digB (q % 10).toNat) _ (by decide) (digB_hex _ (mod_ten q))
      rw [Nat.zero_mul, Nat.zero_add] at this
      rw [← this]; rfl
    have hp : 10 ^ 7 ≤ 10 ^ zs.length := Nat.pow_le_pow_right (by decide) (by rw [List.length_cons] at h8; omega)
    have hk : 1 * 10 ^ 7 ≤ k := Nat.le_trans (Nat.mul_le_mul (by omega) hp) h2
    rw [e]; unfold capN; rw [if_pos (by omega)]
/-- what is read, of such digits and zeros ahead -/
theorem zero_reads (zs : List Int) (z : Nat) (S : ByteArray) (hS : S.data.toList = List.replicate z 48 ++ digL zs) (hne : zs ≠ []) :
    txtR (⟨#[35]⟩ ++ S ++ ⟨#[59]⟩ : ByteArray).data.toList 0 = fixS (valD 10 (digL zs) : Nat) ∧ nxtR (⟨#[35]⟩ ++ S ++ ⟨#[59]⟩ : ByteArray).data.toList 0 = (S.size : Int) + 2 ∧ isRef (⟨#[35]⟩ ++ S ++ ⟨#[59]⟩ : ByteArray).data.toList 0 = true ∧ valI false S.data.toList = (valD 10 (digL zs) : Nat) := by
  have hd : ∀ c ∈ S.data.toList, isDig 10 c = true := by
    rw [hS]
    intro c hc
    rcases List.mem_append.1 hc with hc | hc
    · rw [List.eq_of_mem_replicate hc]; exact dig_48
    · exact digL_dig zs c hc
  have hn : S.data.toList ≠ [] := by
    rw [hS]
    intro e
    have := (List.append_eq_nil_iff.1 e).2
    exact hne (List.map_eq_nil_iff.1 this)
  have hv : valD 10 S.data.toList = valD 10 (digL zs) := by rw [hS]; exact valD_zeros z _
  obtain ⟨r1, r2, r3⟩ := ref_ten S.data.toList [59] hd hn (.inr ⟨_, _, rfl, dig_59.1⟩)
  have e : (⟨#[35]⟩ ++ S ++ ⟨#[59]⟩ : ByteArray).data.toList = 35 :: (S.data.toList ++ [59]) := by
    simp only [ByteArray.data_append, Array.toList_append]; simp
  rw [e]
  refine ⟨by rw [r1, hv], by rw [r2, Lib.size_eq]; rfl, r3, ?_⟩
  rw [valI_digs false _ (digs_self 10 _ hd) hn]
  exact congrArg Int.ofNat hv
theorem low_of_cell {w : World} {x : Addr} {v : Value} (h : w.cell? x = some v) : x.block < w.heap.size := by
  rcases Nat.lt_or_ge x.block w.heap.size with h' | h'
  · exact h'
  · simp [World.cell?, Array.getElem?_eq_none h'] at h
theorem add_block (x : Addr) (i : Nat) : (x.add i).block = x.block := by unfold Addr.add; split <;> rfl

end Go.Proofs.YtionbaedddnggaaDoor
