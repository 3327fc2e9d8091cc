/-
  The table of names: what its rows are like, and what a name's value is: plain mathematics.
-/
import Derived.Test.YtdpgdcbclgdjaaaDoorNamRows
import Derived.Test.YtdpgdcbclgdjaaaDoorSignMath
import Derived.Test.YtdpgdcbclgdjaaaDoorSrchCode
import Derived.Test.YtdpgdcbclgdjaaaDoorFloatMath
namespace Go.Proofs.YtdpgdcbclgdjaaaDoor
open Go.RowKit Go.Lib

theorem nm_flatN : flatN nmRows = nmT.data.toList ++ [10] := eqB_eq _ _ flat_all
theorem nm_flat : nmT.data.toList = flatL nmRows := by unfold flatL; rw [nm_flatN]; simp

/-- what each row is like -/
structure RowP (r : Ln) : Prop where
  ne : r.1 ≠ []
  len : r.1.length ≤ 32
  key : ∀ c ∈ r.1, c ≠ 32 ∧ c ≠ 10
  semi : ∀ c ∈ r.1.dropLast, c ≠ 59
  firNe : firL r.2 ≠ []
  firLen : (firL r.2).length ≤ 5
  firHex : ∀ c ∈ firL r.2, hexB c = true
  secLen : (secL r.2).length ≤ 5
  secHex : ∀ c ∈ secL r.2, hexB c = true
  form : r.2 = firL r.2 ∧ secL r.2 = [] ∨ r.2 = firL r.2 ++ 32 :: secL r.2 ∧ (∃ c ∈ secL r.2, c ≠ 48) ∧ 3 ≤ r.1.length
  firPos : ∃ c ∈ firL r.2, c ≠ 48

theorem rowB_P (r : Ln) (h : rowB r = true) : RowP r := by
  unfold rowB at h
  simp only [Bool.and_eq_true, Bool.or_eq_true, Bool.not_eq_true', List.all_eq_true, List.any_eq_true, Nat.ble_eq, List.isEmpty_eq_false_iff, List.isEmpty_iff, Bool.or_eq_false_iff, beq_eq_false_iff_ne, ne_eq] at h
  obtain ⟨⟨⟨⟨⟨⟨⟨h1, h2⟩, h3⟩, h4⟩, ⟨⟨h5, h6⟩, h7⟩⟩, ⟨h8, h9⟩⟩, h10⟩, h11⟩ := h
  refine ⟨h1, h2, h3, h4, h5, h6, h7, h8, h9, ?_, h11⟩
  rcases h10 with ⟨a, b⟩ | ⟨⟨a, b⟩, c⟩
  · exact .inl ⟨eqB_eq _ _ a, b⟩
  · exact .inr ⟨eqB_eq _ _ a, b, c⟩
theorem rise_pair : ∀ (k : Txt) (rs : List Ln), riseB k rs = true → (∀ r ∈ rs, k < r.1) ∧ rs.Pairwise fun a b => a.1 < b.1
  | k, [], _ => ⟨by simp, .nil⟩
  | k, r :: rs, h => by
    rw [riseB, Bool.and_eq_true, less_eq, decide_eq_true_iff] at h
    obtain ⟨h1, h2⟩ := rise_pair r.1 rs h.2
    refine ⟨fun x hx => ?_, List.pairwise_cons.2 ⟨h1, h2⟩⟩
    rcases List.mem_cons.1 hx with rfl | hx
    · exact h.1
    · exact List.lt_trans h.1 (h1 x hx)
theorem nm_row (r : Ln) (hr : r ∈ nmRows) : RowP r := rowB_P r (List.all_eq_true.1 row_all r hr)
theorem hexB_int (c : UInt8) (h : hexB c = true) : 0 ≤ hexI (c.toNat : Int) ∧ hexI (c.toNat : Int) < 16 ∧ c ≠ 10 ∧ c ≠ 32 ∧ (48 ≤ c.toNat ∧ c.toNat ≤ 57 ∧ hexI (c.toNat : Int) = c.toNat - 48 ∨ 65 ≤ c.toNat ∧ c.toNat ≤ 70 ∧ hexI (c.toNat : Int) = c.toNat - 55) := by
  unfold hexB at h
  rw [decide_eq_true_iff] at h
  have e10 : c ≠ 10 := by rintro rfl; revert h; decide
  have e32 : c ≠ 32 := by rintro rfl; revert h; decide
  unfold hexI
  rcases h with h | h
  · rw [if_pos (by omega)]; refine ⟨by omega, by omega, e10, e32, .inl ⟨h.1, h.2, rfl⟩⟩
  · rw [if_neg (by omega), if_pos (by omega)]; refine ⟨by omega, by omega, e10, e32, .inr ⟨h.1, h.2, rfl⟩⟩
theorem RowP.no10 {r : Ln} (h : RowP r) : 10 ∉ r.2 := by
  intro hm
  rcases h.form with ⟨a, -⟩ | ⟨a, -⟩
  · rw [a] at hm; exact (hexB_int 10 (h.firHex _ hm)).2.2.1 rfl
  · rw [a, List.mem_append, List.mem_cons] at hm
    rcases hm with hm | hm | hm
    · exact (hexB_int 10 (h.firHex _ hm)).2.2.1 rfl
    · revert hm; decide
    · exact (hexB_int 10 (h.secHex _ hm)).2.2.1 rfl
theorem RowP.good {r : Ln} (h : RowP r) : Good r := ⟨h.ne, fun hm => (h.key _ hm).1 rfl, fun hm => (h.key _ hm).2 rfl, h.no10⟩
theorem nm_valid : Valid nmRows := ⟨fun r hr => (nm_row r hr).good, (rise_pair [] nmRows rise_all).2⟩

/-- a number's digits -/
def stepH (n : Nat) (c : UInt8) : Nat := 16 * n + (hexI (c.toNat : Int)).toNat
def hexN (l : Txt) : Nat := l.foldl stepH 0
theorem hexN_nil : hexN [] = 0 := rfl
theorem hexN_snoc (l : Txt) (c : UInt8) : hexN (l ++ [c]) = 16 * hexN l + (hexI (c.toNat : Int)).toNat := by
  unfold hexN; rw [List.foldl_append]; rfl
theorem foldH_lt : ∀ (l : Txt) (n : Nat), (∀ c ∈ l, hexB c = true) → l.foldl stepH n < (n + 1) * 16 ^ l.length
  | [], n, _ => by simp
  | c :: l, n, h => by
    have h1 := hexB_int c (h c List.mem_cons_self)
    have ih := foldH_lt l (stepH n c) (fun x hx => h x (List.mem_cons_of_mem _ hx))
    rw [List.foldl_cons, List.length_cons, Nat.pow_succ]
    refine Nat.lt_of_lt_of_le ih ?_
    have : stepH n c + 1 ≤ (n + 1) * 16 := by unfold stepH; omega
    calc (stepH n c + 1) * 16 ^ l.length ≤ ((n + 1) * 16) * 16 ^ l.length := Nat.mul_le_mul_right _ this
      _ = (n + 1) * (16 ^ l.length * 16) := by rw [Nat.mul_assoc, Nat.mul_comm 16]
theorem hexN_lt (l : Txt) (h : ∀ c ∈ l, hexB c = true) (hl : l.length ≤ 5) : hexN l < 1048576 := by
  have h1 := foldH_lt l 0 h
  have h2 : 16 ^ l.length ≤ 16 ^ 5 := Nat.pow_le_pow_right (by decide) hl
  unfold hexN
  omega
theorem foldH_ge : ∀ (l : Txt) (n : Nat), n ≤ l.foldl stepH n
  | [], _ => Nat.le_refl _
  | c :: l, n => by
    rw [List.foldl_cons]
    have := foldH_ge l (stepH n c)
    unfold stepH at this ⊢
    omega
theorem foldH_pos : ∀ (l : Txt) (n : Nat), (∀ c ∈ l, hexB c = true) → (∃ c ∈ l, c ≠ 48) → 0 < l.foldl stepH n
  | [], _, _, ⟨c, h, _⟩ => by simp at h
  | c :: l, n, hh, ⟨x, hx, hne⟩ => by
    rw [List.foldl_cons]
    rcases List.mem_cons.1 hx with rfl | hx
    · have h1 := hexB_int x (hh x List.mem_cons_self)
      have h2 := foldH_ge l (stepH n x)
      have h3 : x.toNat ≠ 48 := fun e => hne (by rw [← UInt8.toNat_inj, e]; rfl)
      unfold stepH at h2 ⊢
      omega
    · exact foldH_pos l _ (fun y hy => hh y (List.mem_cons_of_mem _ hy)) ⟨x, hx, hne⟩
theorem hexN_pos (l : Txt) (h : ∀ c ∈ l, hexB c = true) (hp : ∃ c ∈ l, c ≠ 48) : 0 < hexN l := foldH_pos l 0 h hp

/-- P6.1: the numbers of a name's signs, by the rest of its line -/
def aOf : Option Txt → Nat | none => 0 | some r => hexN (firL r)
def bOf : Option Txt → Nat | none => 0 | some r => hexN (secL r)
def nmLook (name : Txt) : Option Txt := lookL nmRows name
theorem look_row {name r : Txt} (h : nmLook name = some r) : (name, r) ∈ nmRows := by
  unfold nmLook lookL at h
  cases hf : nmRows.find? (fun x => x.1 == name) with
  | none => rw [hf] at h; simp at h
  | some q =>
    rw [hf] at h
    have e1 := List.find?_some hf
    have e2 := List.mem_of_find?_eq_some hf
    simp only [beq_iff_eq] at e1
    simp only [Option.map_some, Option.some.injEq] at h
    rw [← e1, ← h]
    exact e2
theorem look_of {r : Ln} (hr : r ∈ nmRows) : nmLook r.1 = some r.2 := by
  obtain ⟨i, hi, rfl⟩ := List.getElem_of_mem hr
  exact lookL_at nm_valid i hi
theorem aOf_lt (name : Txt) : aOf (nmLook name) < 1048576 := by
  cases h : nmLook name with
  | none => decide
  | some r => have := nm_row _ (look_row h); exact hexN_lt _ this.firHex this.firLen
theorem bOf_lt (name : Txt) : bOf (nmLook name) < 1048576 := by
  cases h : nmLook name with
  | none => decide
  | some r => have := nm_row _ (look_row h); exact hexN_lt _ this.secHex this.secLen

/-- short keys -/
theorem short_pair : ∀ (rs : List Ln), shortB rs = true → ∀ i (hi : i < rs.length), rs[i].1.drop (rs[i].1.length - 1) = [59] ∨ (rs[i].1 ++ [59], rs[i].2) ∈ rs
  | [], _, i, hi => absurd hi (by simp)
  | [r], h, i, hi => by
    have : i = 0 := by simp at hi; exact hi
    subst this
    exact .inl (eqB_eq _ _ h)
  | r :: q :: rs, h, i, hi => by
    rw [shortB, Bool.and_eq_true, Bool.or_eq_true, Bool.and_eq_true] at h
    cases i with
    | zero =>
      rcases h.1 with h1 | ⟨h1, h2⟩
      · exact .inl (eqB_eq _ _ h1)
      · right
        have e1 := eqB_eq _ _ h1
        have e2 := eqB_eq _ _ h2
        show (r.1 ++ [59], r.2) ∈ _
        rw [← e1, ← e2]
        exact List.mem_cons_of_mem _ List.mem_cons_self
    | succ i =>
      rcases short_pair (q :: rs) h.2 i (by simpa using hi) with h1 | h1
      · exact .inl h1
      · exact .inr (List.mem_cons_of_mem _ h1)
theorem nm_short (r : Ln) (hr : r ∈ nmRows) : r.1.drop (r.1.length - 1) = [59] ∨ (r.1 ++ [59], r.2) ∈ nmRows := by
  obtain ⟨i, hi, rfl⟩ := List.getElem_of_mem hr
  exact short_pair nmRows short_all i hi
theorem nm_size : nmT.size ≤ 1000000 := by
  have h1 : nmT.data.toList.length + 1 = (flatN nmRows).length := by rw [nm_flatN, List.length_append, List.length_singleton]
  have h2 : ∀ rs : List Ln, (∀ r ∈ rs, RowP r) → (flatN rs).length ≤ 48 * rs.length := by
    intro rs
    induction rs with
    | nil => simp [flatN]
    | cons r rs ih =>
      intro h
      have h3 := ih (fun x hx => h x (List.mem_cons_of_mem _ hx))
      have h4 := h r List.mem_cons_self
      have h5 := h4.len
      have h6 := h4.firLen
      have h7 := h4.secLen
      have h8 : r.2.length ≤ 11 := by
        rcases h4.form with ⟨a, -⟩ | ⟨a, -⟩
        · rw [a]; omega
        · rw [a]; simp; omega
      simp [flatN, lineL]
      omega
  have h3 := h2 nmRows nm_row
  rw [nm_len] at h3
  rw [Lib.size_eq]
  omega

/-- the same table, by any name -/
structure IsNm (T : ByteArray) : Prop where
  eq : nmT = T
theorem IsNm.list {T : ByteArray} (h : IsNm T) : T.data.toList = flatL nmRows := by rw [← h.eq]; exact nm_flat
theorem IsNm.size {T : ByteArray} (h : IsNm T) : T.size ≤ 1000000 := by rw [← h.eq]; exact nm_size
end Go.Proofs.YtdpgdcbclgdjaaaDoor
