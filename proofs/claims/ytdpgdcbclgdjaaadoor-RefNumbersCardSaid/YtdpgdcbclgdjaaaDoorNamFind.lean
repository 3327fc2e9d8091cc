/-
  Where a key's line begins in a sorted list, and what stands in it: plain mathematics.
-/
import Derived.Test.YtdpgdcbclgdjaaaDoorNamCode
namespace Go.Proofs.YtdpgdcbclgdjaaaDoor
open Go.RowKit Go.Lib

theorem split_eq (c : UInt8) : ∀ (p q x y : Txt), c ∉ p → c ∉ q → p ++ c :: x = q ++ c :: y → p = q ∧ x = y
  | [], [], x, y, _, _, h => by simpa using h
  | [], b :: bs, x, y, _, hb, h => by
    simp only [List.nil_append, List.cons_append, List.cons.injEq] at h
    exact absurd h.1 (fun e => hb (by rw [e]; exact List.mem_cons_self))
  | a :: ps, [], x, y, ha, _, h => by
    simp only [List.nil_append, List.cons_append, List.cons.injEq] at h
    exact absurd h.1 (fun e => ha (by rw [← e]; exact List.mem_cons_self))
  | a :: ps, b :: bs, x, y, ha, hb, h => by
    simp only [List.cons_append, List.cons.injEq] at h
    obtain ⟨h1, h2⟩ := split_eq c ps bs x y (fun m => ha (List.mem_cons_of_mem _ m)) (fun m => hb (List.mem_cons_of_mem _ m)) h.2
    exact ⟨by rw [h.1, h1], h2⟩
theorem flat_some {rs : List Ln} {i : Nat} (h : i < (flatL rs).length) : 0 < rs.length := by
  cases rs with
  | nil => simp [flatL, flatN] at h
  | cons => simp
theorem beg_of {rs : List Ln} (hv : ∀ r ∈ rs, Good r) (i : Nat) (hi : i < (flatL rs).length) (h : i = 0 ∨ (flatL rs)[i - 1]? = some 10) : ∃ k, k < rs.length ∧ offN rs k = i := by
  have h0 := flat_some hi
  have h1 := flatL_len rs
  obtain ⟨k, -, hk, h2, h3⟩ := line_of rs i rs.length (Nat.le_refl _) 0 h0 (by rw [offN_zero]; omega) (by rw [offN_all rs _ (Nat.le_refl _)]; omega)
  refine ⟨k, hk, ?_⟩
  by_cases e : offN rs k = i
  · exact e
  · exfalso
    rcases h with h | h
    · omega
    · have := (byte_in rs hv k (i - 1) hk (by omega) (by omega) (by omega)).1 h
      omega
theorem beg_at {rs : List Ln} (hv : ∀ r ∈ rs, Good r) (k : Nat) (hk : k < rs.length) : offN rs k = 0 ∨ (flatL rs)[offN rs k - 1]? = some 10 := by
  cases k with
  | zero => exact .inl rfl
  | succ k =>
    right
    have h1 := offN_succ rs k (by omega)
    have h2 := offN_lt_to rs (k + 1) rs.length hk (Nat.le_refl _)
    rw [toN_all] at h2
    exact (byte_in rs hv k _ (by omega) (by omega) (by omega) (by omega)).2 (by omega)
theorem drop_line (rs : List Ln) (k : Nat) (hk : k < rs.length) : ∃ z, (flatL rs).drop (offN rs k) = lineL rs[k] ++ z ∧ (z = [] ∨ ∃ y, z = 10 :: y) := by
  obtain ⟨z, h1, h2⟩ := line_at rs k rs.length hk (Nat.le_refl _)
  rw [toN_all, List.take_of_length_le (Nat.le_refl _)] at h1
  exact ⟨z, h1, h2⟩
theorem at_hit {rs : List Ln} (hv : ∀ r ∈ rs, Good r) (name : Txt) (hn : 32 ∉ name) (k : Nat) (hk : k < rs.length) (h : ((flatL rs).drop (offN rs k)).take (name.length + 1) = name ++ [32]) : rs[k].1 = name := by
  obtain ⟨z, h1, -⟩ := drop_line rs k hk
  rw [h1] at h
  have h2 : lineL rs[k] ++ z = (name ++ [32]) ++ (lineL rs[k] ++ z).drop (name.length + 1) := by
    rw [← h]; exact (List.take_append_drop _ _).symm
  rw [List.append_assoc, lineL, List.append_assoc] at h2
  exact (split_eq 32 _ _ _ _ (hv _ (List.getElem_mem hk)).2.1 hn h2).1
theorem at_conv {rs : List Ln} (k : Nat) (hk : k < rs.length) : ((flatL rs).drop (offN rs k)).take (rs[k].1.length + 1) = rs[k].1 ++ [32] ∧ offN rs k + rs[k].1.length + 1 ≤ (flatL rs).length := by
  obtain ⟨z, h1, -⟩ := drop_line rs k hk
  have h2 := offN_lt_to rs k rs.length hk (Nat.le_refl _)
  rw [toN_all, lineL_len] at h2
  refine ⟨?_, by omega⟩
  rw [h1, lineL, show rs[k].1 ++ 32 :: rs[k].2 ++ z = (rs[k].1 ++ [32]) ++ (rs[k].2 ++ z) by simp]
  rw [List.take_append_of_le_length (by simp), List.take_of_length_le (by simp)]

/-- where a key's line begins; below 0: nowhere -/
def atL (rs : List Ln) (name : Txt) : Int := match rs.findIdx? (fun r => r.1 == name) with | some k => (offN rs k : Int) | none => -1
theorem atL_cases {rs : List Ln} (name : Txt) : (atL rs name = -1 ∧ ∀ r ∈ rs, r.1 ≠ name) ∨ ∃ k, ∃ hk : k < rs.length, rs[k].1 = name ∧ atL rs name = (offN rs k : Int) := by
  unfold atL
  cases h : rs.findIdx? (fun r => r.1 == name) with
  | none =>
    left
    rw [List.findIdx?_eq_none_iff] at h
    exact ⟨rfl, fun r hr => by simpa using h r hr⟩
  | some k =>
    right
    rw [List.findIdx?_eq_some_iff_getElem] at h
    obtain ⟨hk, h1, -⟩ := h
    exact ⟨k, hk, by simpa using h1, rfl⟩
theorem key_one {rs : List Ln} (h : Valid rs) {i j : Nat} (hi : i < rs.length) (hj : j < rs.length) (e : rs[i].1 = rs[j].1) : i = j := by
  rcases Nat.lt_trichotomy i j with h1 | h1 | h1
  · have := h.rise h1 hj; rw [e] at this; exact absurd this (List.lt_irrefl _)
  · exact h1
  · have := h.rise h1 hi; rw [e] at this; exact absurd this (List.lt_irrefl _)
theorem atL_hit {rs : List Ln} (h : Valid rs) (name : Txt) (k : Nat) (hk : k < rs.length) (e : rs[k].1 = name) : atL rs name = (offN rs k : Int) := by
  rcases atL_cases (rs := rs) name with ⟨-, h1⟩ | ⟨j, hj, h1, h2⟩
  · exact absurd e (h1 _ (List.getElem_mem hk))
  · rw [h2, key_one h hj hk (h1.trans e.symm)]
/-- what a search through all places finds: at a place, by what stands there -/
theorem at_yes {rs : List Ln} (h : Valid rs) (name : Txt) (hn : 32 ∉ name) (i : Nat) (hi : i < (flatL rs).length) (hb : i = 0 ∨ (flatL rs)[i - 1]? = some 10) (hs : ((flatL rs).drop i).take (name.length + 1) = name ++ [32]) : atL rs name = (i : Int) := by
  obtain ⟨k, hk, rfl⟩ := beg_of h.1 i hi hb
  exact atL_hit h name k hk (at_hit h.1 name hn k hk hs)
theorem at_no {rs : List Ln} (h : Valid rs) (name : Txt) (i : Nat) (e : atL rs name = (i : Int)) : (i = 0 ∨ (flatL rs)[i - 1]? = some 10) ∧ ((flatL rs).drop i).take (name.length + 1) = name ++ [32] ∧ i + name.length + 1 ≤ (flatL rs).length := by
  rcases atL_cases (rs := rs) name with ⟨h1, -⟩ | ⟨k, hk, h1, h2⟩
  · omega
  · have : i = offN rs k := by omega
    subst this
    have h3 := at_conv k hk
    rw [h1] at h3
    exact ⟨beg_at h.1 k hk, h3⟩
theorem look_atL (name : Txt) : (atL nmRows name = -1 ∧ nmLook name = none) ∨ ∃ k, ∃ hk : k < nmRows.length, nmRows[k].1 = name ∧ atL nmRows name = (offN nmRows k : Int) ∧ nmLook name = some nmRows[k].2 := by
  rcases atL_cases (rs := nmRows) name with ⟨h1, h2⟩ | ⟨k, hk, h1, h2⟩
  · exact .inl ⟨h1, lookL_none _ _ h2⟩
  · exact .inr ⟨k, hk, h1, h2, by rw [← h1]; exact look_of (List.getElem_mem hk)⟩
theorem look_short (name : Txt) (h : name = [] ∨ 32 < name.length) : atL nmRows name = -1 ∧ nmLook name = none := by
  rcases look_atL name with h1 | ⟨k, hk, h1, -⟩
  · exact h1
  · exfalso
    have h2 := nm_row _ (List.getElem_mem hk)
    rw [← h1] at h
    rcases h with h | h
    · exact h2.ne h
    · have := h2.len; omega
theorem look_bad (name : Txt) (h : ∃ c ∈ name, c = 10 ∨ c = 32) : nmLook name = none := by
  rcases look_atL name with ⟨-, h1⟩ | ⟨k, hk, h1, -⟩
  · exact h1
  · exfalso
    have h2 := nm_row _ (List.getElem_mem hk)
    obtain ⟨c, hc, h3⟩ := h
    rw [← h1] at hc
    have := h2.key c hc
    rcases h3 with rfl | rfl
    · exact this.2 rfl
    · exact this.1 rfl

/-- a line's rest, read byte by byte -/
structure Par where
  a : Nat
  b : Nat
  one : Bool
def stepP (p : Par) (c : UInt8) : Par := if c = 32 then ⟨p.a, p.b, false⟩ else if p.one then ⟨stepH p.a c, p.b, true⟩ else ⟨p.a, stepH p.b c, false⟩
def parL (l : Txt) : Par := l.foldl stepP ⟨0, 0, true⟩
theorem par_hex1 : ∀ (l : Txt) (a : Nat), (∀ c ∈ l, hexB c = true) → l.foldl stepP ⟨a, 0, true⟩ = ⟨l.foldl stepH a, 0, true⟩
  | [], _, _ => rfl
  | c :: l, a, h => by
    have h1 := (hexB_int c (h c List.mem_cons_self)).2.2.2.1
    rw [List.foldl_cons, List.foldl_cons]
    unfold stepP
    rw [if_neg h1, if_pos rfl]
    exact par_hex1 l _ (fun x hx => h x (List.mem_cons_of_mem _ hx))
theorem par_hex2 : ∀ (l : Txt) (a b : Nat), (∀ c ∈ l, hexB c = true) → l.foldl stepP ⟨a, b, false⟩ = ⟨a, l.foldl stepH b, false⟩
  | [], _, _, _ => rfl
  | c :: l, a, b, h => by
    have h1 := (hexB_int c (h c List.mem_cons_self)).2.2.2.1
    rw [List.foldl_cons, List.foldl_cons]
    unfold stepP
    rw [if_neg h1, if_neg Bool.false_ne_true]
    exact par_hex2 l _ _ (fun x hx => h x (List.mem_cons_of_mem _ hx))
theorem par_row {r : Ln} (h : RowP r) : (parL r.2).a = hexN (firL r.2) ∧ (parL r.2).b = hexN (secL r.2) := by
  unfold parL
  rcases h.form with ⟨h1, h2⟩ | ⟨h1, -⟩
  · have e : List.foldl stepP ⟨0, 0, true⟩ r.2 = ⟨hexN (firL r.2), 0, true⟩ := by
      conv => lhs; rw [h1]
      rw [par_hex1 _ _ h.firHex]
      rfl
    rw [e, h2]
    exact ⟨rfl, rfl⟩
  · have e : List.foldl stepP ⟨0, 0, true⟩ r.2 = ⟨hexN (firL r.2), hexN (secL r.2), false⟩ := by
      conv => lhs; rw [h1]
      rw [List.foldl_append, par_hex1 _ _ h.firHex, List.foldl_cons]
      unfold stepP
      rw [if_pos rfl]
      exact par_hex2 _ _ _ h.secHex
    rw [e]
    exact ⟨rfl, rfl⟩
theorem row_bytes {r : Ln} (h : RowP r) : ∀ c ∈ r.2, c = 32 ∨ hexB c = true := by
  intro c hc
  rcases h.form with ⟨h1, -⟩ | ⟨h1, -⟩
  · rw [h1] at hc; exact .inr (h.firHex c hc)
  · rw [h1, List.mem_append, List.mem_cons] at hc
    rcases hc with hc | hc | hc
    · exact .inr (h.firHex c hc)
    · exact .inl hc
    · exact .inr (h.secHex c hc)
theorem par_lt : ∀ (l : Txt) (p : Par) (m : Nat), (∀ c ∈ l, c = 32 ∨ hexB c = true) → p.a < m → p.b < m → (l.foldl stepP p).a < m * 16 ^ l.length ∧ (l.foldl stepP p).b < m * 16 ^ l.length
  | [], p, m, _, ha, hb => by simp [ha, hb]
  | c :: l, p, m, h, ha, hb => by
    have hs : ∀ n, n < m → c ≠ 32 → stepH n c < m * 16 := by
      intro n hn hc
      have := hexB_int c ((h c List.mem_cons_self).resolve_left hc)
      unfold stepH; omega
    have ih := par_lt l (stepP p c) (m * 16) (fun x hx => h x (List.mem_cons_of_mem _ hx))
      (by unfold stepP; split; · show p.a < _; omega
          · rename_i hc; split; · exact hs _ ha hc
            · show p.a < _; omega)
      (by unfold stepP; split; · show p.b < _; omega
          · rename_i hc; split; · show p.b < _; omega
            · exact hs _ hb hc)
    rw [List.foldl_cons, List.length_cons, Nat.pow_succ, Nat.mul_comm (16 ^ l.length), ← Nat.mul_assoc]
    exact ih
theorem par_small {r : Ln} (h : RowP r) (j : Nat) : (parL (r.2.take j)).a < 17592186044416 ∧ (parL (r.2.take j)).b < 17592186044416 := by
  have h1 := par_lt (r.2.take j) ⟨0, 0, true⟩ 1 (fun c hc => row_bytes h c (List.mem_of_mem_take hc)) (by decide) (by decide)
  have h2 : 16 ^ (r.2.take j).length ≤ 16 ^ 11 := Nat.pow_le_pow_right (by decide) (by rw [List.length_take]; have := rest_len h; omega)
  unfold parL
  omega
theorem parL_snoc (l : Txt) (j : Nat) (h : j < l.length) : parL (l.take (j + 1)) = stepP (parL (l.take j)) l[j] := by
  unfold parL
  rw [List.take_succ_eq_append_getElem h, List.foldl_append]; rfl
/-- the bytes of a line's rest, place by place, and what stands behind -/
theorem rest_at {rs : List Ln} (k : Nat) (hk : k < rs.length) (j : Nat) (hj : j < rs[k].2.length) : (flatL rs)[offN rs k + rs[k].1.length + 1 + j]? = some rs[k].2[j] := by
  obtain ⟨z, h1, -⟩ := drop_line rs k hk
  have h2 : (flatL rs)[offN rs k + (rs[k].1.length + 1 + j)]? = (lineL rs[k] ++ z)[rs[k].1.length + 1 + j]? := by rw [← h1, List.getElem?_drop]
  rw [show offN rs k + rs[k].1.length + 1 + j = offN rs k + (rs[k].1.length + 1 + j) by omega, h2, lineL, List.append_assoc, List.getElem?_append_right (by omega)]
  rw [show rs[k].1.length + 1 + j - rs[k].1.length = j + 1 by omega]
  rw [List.cons_append, List.getElem?_cons_succ, List.getElem?_append_left hj, List.getElem?_eq_getElem hj]
theorem rest_end {rs : List Ln} (k : Nat) (hk : k < rs.length) : offN rs k + rs[k].1.length + 1 + rs[k].2.length = (flatL rs).length ∨ (flatL rs)[offN rs k + rs[k].1.length + 1 + rs[k].2.length]? = some 10 := by
  obtain ⟨z, h1, h3⟩ := drop_line rs k hk
  have h2 : (flatL rs)[offN rs k + (rs[k].1.length + 1 + rs[k].2.length)]? = (lineL rs[k] ++ z)[rs[k].1.length + 1 + rs[k].2.length]? := by rw [← h1, List.getElem?_drop]
  have h4 := lineL_len rs[k]
  rw [show offN rs k + rs[k].1.length + 1 + rs[k].2.length = offN rs k + (rs[k].1.length + 1 + rs[k].2.length) by omega, h2, List.getElem?_append_right (by omega)]
  rw [show rs[k].1.length + 1 + rs[k].2.length - (lineL rs[k]).length = 0 by omega]
  have h5 : ((flatL rs).drop (offN rs k)).length = (lineL rs[k] ++ z).length := by rw [h1]
  rw [List.length_drop, List.length_append] at h5
  have h6 := offN_lt_to rs k rs.length hk (Nat.le_refl _)
  rw [toN_all] at h6
  rcases h3 with rfl | ⟨y, rfl⟩
  · left; simp at h5; omega
  · right; rfl
end Go.Proofs.YtdpgdcbclgdjaaaDoor
