/-
  Texts laid together: Goto, SrchMath, SrchLib, SrchCode, SrchTop, RowMath, RowRef, RowRows.
-/
import Derived.WalkKit
import Derived.ScopeJumps
import Derived.Lib.LastIndexByte
import Derived.Lib.Bytes
import Derived.Test.YtbcmfcddkegcoaaGreatDoorShelf
import Derived.Test.YtbcmfcddkegcoaaGreatDoorP1
import Derived.Lib.IndexLaws
import Derived.Deep.Draws
import Derived.Below
import Derived.BigQuiet
import Derived.OwnWalk
import Derived.Laws.AppendOwn
import Derived.Laws.OwnMore
/-! A function that jumps back to one label: what holds at the label ('J'), and a measure that every pass lowers; the way up to the label is walked once. -/
namespace Go.Proofs.YtbcmfcddkegcoaaGreatDoor

section
variable {P : Program} {a : Act} {w : World} {Q : Exit → Act → World → Prop}
theorem jump_mono (l : Nat) {J J' : Act → World → Prop} (h : ∀ a w, J a w → J' a w) : ∀ e a w, Exit.jump l J Q e a w → Exit.jump l J' Q e a w := by
  intro e a w h1
  cases e with
  | goto l' => exact ⟨h1.1, h _ _ h1.2⟩
  | normal => exact h1
  | exit id => exact h1
  | ret => exact h1
  | panic ch => exact h1
  | outgrown => exact h1
theorem wp_scope_label {c r : Code} (l : Nat) (J : Act → World → Prop) (μ : Act → World → Nat) (hf : findLabel c l = some (Code.skip.seq r))
    (pass : ∀ a w, J a w → r.wp P (Exit.jump l (fun a' w' => J a' w' ∧ μ a' w' < μ a w) Q) a w)
    (first : (∀ a w, J a w → r.wp P (Exit.jump l J Q) a w) → c.wp P (Exit.jump l J Q) a w) : (Code.scope c).wp P Q a w :=
  wp_scope_jumps l J μ hf (first fun a w h => wp_mono (pass a w h) (jump_mono l fun _ _ h => h.1)) fun a w h => wp_seq (wp_skip (pass a w h))
end
end Go.Proofs.YtbcmfcddkegcoaaGreatDoor

/-! Sorted lists of lines, and what stands in them: plain mathematics. No program. -/
namespace Go.Proofs.YtbcmfcddkegcoaaGreatDoor

abbrev Txt := List UInt8
abbrev Ln := Txt × Txt

def lineL (r : Ln) : Txt := r.1 ++ 32 :: r.2
def flatN : List Ln → Txt
  | [] => []
  | r :: rs => lineL r ++ 10 :: flatN rs
def flatL (rs : List Ln) : Txt := (flatN rs).dropLast
def Good (r : Ln) : Prop := r.1 ≠ [] ∧ 32 ∉ r.1 ∧ 10 ∉ r.1 ∧ 10 ∉ r.2
def Valid (rs : List Ln) : Prop := (∀ r ∈ rs, Good r) ∧ rs.Pairwise fun a b => a.1 < b.1
def offN (rs : List Ln) (i : Nat) : Nat := (flatN (rs.take i)).length
def toN (rs : List Ln) (j : Nat) : Nat := min (offN rs j) (flatL rs).length

theorem lineL_len (r : Ln) : (lineL r).length = r.1.length + r.2.length + 1 := by simp [lineL]; omega
theorem Good.pos {r : Ln} (h : Good r) : 0 < r.1.length := List.length_pos_iff.2 h.1
theorem Good.line {r : Ln} (h : Good r) : 10 ∉ lineL r := by
  simp only [lineL, List.mem_append, List.mem_cons, not_or]
  exact ⟨h.2.2.1, by decide, h.2.2.2⟩
theorem flatN_append (a b : List Ln) : flatN (a ++ b) = flatN a ++ flatN b := by
  induction a with
  | nil => rfl
  | cons r a ih => simp [flatN, ih, List.append_assoc]
theorem flatN_drop (rs : List Ln) (i : Nat) : (flatN rs).drop (offN rs i) = flatN (rs.drop i) := by
  unfold offN
  conv => lhs; arg 2; rw [← List.take_append_drop i rs, flatN_append]
  rw [List.drop_left]
theorem offN_succ (rs : List Ln) (i : Nat) (h : i < rs.length) : offN rs (i + 1) = offN rs i + (lineL rs[i]).length + 1 := by
  unfold offN
  rw [List.take_succ_eq_append_getElem h, flatN_append]
  simp [flatN]
  omega
theorem offN_le (rs : List Ln) {i j : Nat} (h : i ≤ j) : offN rs i ≤ offN rs j := by
  obtain ⟨k, rfl⟩ := Nat.exists_eq_add_of_le h
  unfold offN
  rw [List.take_add, flatN_append, List.length_append]
  omega
theorem offN_all (rs : List Ln) (j : Nat) (h : rs.length ≤ j) : offN rs j = (flatN rs).length := by
  unfold offN; rw [List.take_of_length_le h]
theorem flatL_len (rs : List Ln) : (flatL rs).length = (flatN rs).length - 1 := by unfold flatL; rw [List.length_dropLast]
theorem offN_lt (rs : List Ln) (i : Nat) (h : i < rs.length) : offN rs i + (lineL rs[i]).length + 1 ≤ (flatN rs).length := by
  rw [← offN_succ rs i h, ← offN_all rs rs.length (Nat.le_refl _)]
  exact offN_le rs h
theorem offN_lt_to (rs : List Ln) (i j : Nat) (h : i < j) (hj : j ≤ rs.length) : offN rs i + (lineL (rs[i]'(by omega))).length ≤ toN rs j := by
  have h1 := offN_lt rs i (by omega)
  have h2 := offN_le rs (i := i + 1) (j := j) h
  rw [offN_succ rs i (by omega)] at h2
  have h3 := flatL_len rs
  unfold toN
  omega
theorem toN_le (rs : List Ln) (i j : Nat) (h : j ≤ i) : toN rs j ≤ offN rs i := by
  have := offN_le rs h
  unfold toN; omega
theorem toN_size (rs : List Ln) (j : Nat) : toN rs j ≤ (flatL rs).length := by unfold toN; omega
theorem toN_all (rs : List Ln) : toN rs rs.length = (flatL rs).length := by
  have := flatL_len rs
  unfold toN
  rw [offN_all rs _ (Nat.le_refl _)]
  omega
theorem toN_at (rs : List Ln) (k : Nat) (h : k < rs.length) : toN rs k = offN rs k := by
  have h1 := offN_lt rs k h
  have h3 := flatL_len rs
  unfold toN; omega

/-- a line that begins ahead of a place, with what stands behind it -/
theorem line_at (rs : List Ln) (k j : Nat) (h : k < j) (hj : j ≤ rs.length) : ∃ z, ((flatL rs).take (toN rs j)).drop (offN rs k) = lineL (rs[k]'(by omega)) ++ z ∧ (z = [] ∨ ∃ y, z = 10 :: y) := by
  have hk : k < rs.length := by omega
  have h1 := offN_lt_to rs k j h hj
  have h2 := toN_size rs j
  have e1 : (flatL rs).take (toN rs j) = (flatN rs).take (toN rs j) := by
    have := flatL_len rs
    unfold flatL
    rw [List.dropLast_eq_take, List.take_take]
    congr 1
    omega
  have e2 : (flatN rs).drop (offN rs k) = lineL rs[k] ++ 10 :: flatN (rs.drop (k + 1)) := by
    rw [flatN_drop, List.drop_eq_getElem_cons hk]; rfl
  rw [e1, List.drop_take, e2, List.take_append]
  rw [List.take_of_length_le (by omega)]
  refine ⟨_, rfl, ?_⟩
  generalize toN rs j - offN rs k - (lineL rs[k]).length = m
  cases m with
  | zero => exact .inl rfl
  | succ m => exact .inr ⟨_, rfl⟩

/-- the line that a place lies in -/
theorem line_of (rs : List Ln) (p : Nat) : ∀ j, j ≤ rs.length → ∀ i, i < j → offN rs i ≤ p → p < offN rs j → ∃ k, i ≤ k ∧ k < j ∧ offN rs k ≤ p ∧ p < offN rs (k + 1) := by
  intro j
  induction j with
  | zero => intro _ i hi; omega
  | succ j ih =>
    intro hj i hi h1 h2
    by_cases h : offN rs j ≤ p
    · exact ⟨j, by omega, by omega, h, h2⟩
    · have hij : i ≠ j := by rintro rfl; omega
      obtain ⟨k, a, b, c, d⟩ := ih (by omega) i (by omega) h1 (by omega)
      exact ⟨k, a, by omega, c, d⟩

/-- the bytes of the list, place by place -/
theorem byte_in (rs : List Ln) (hv : ∀ r ∈ rs, Good r) (k p : Nat) (hk : k < rs.length) (h1 : offN rs k ≤ p) (h2 : p < offN rs (k + 1)) (hp : p < (flatL rs).length) : (flatL rs)[p]? = some 10 ↔ p + 1 = offN rs (k + 1) := by
  have e1 : (flatL rs)[p]? = (flatN rs)[p]? := by
    have := flatL_len rs
    unfold flatL
    rw [List.dropLast_eq_take, List.getElem?_take, if_pos (by omega)]
  have e2 : (flatN rs).drop (offN rs k) = lineL rs[k] ++ 10 :: flatN (rs.drop (k + 1)) := by
    rw [flatN_drop, List.drop_eq_getElem_cons hk]; rfl
  have e3 : (flatN rs)[p]? = (lineL rs[k] ++ 10 :: flatN (rs.drop (k + 1)))[p - offN rs k]? := by
    rw [← e2, List.getElem?_drop]; congr 1; omega
  rw [e1, e3]
  rw [offN_succ rs k hk] at h2 ⊢
  by_cases hl : p - offN rs k < (lineL rs[k]).length
  · rw [List.getElem?_append_left hl]
    constructor
    · intro h
      exact absurd (List.mem_of_getElem? h) (hv _ (List.getElem_mem hk)).line
    · intro h; omega
  · have : p - offN rs k = (lineL rs[k]).length := by omega
    rw [this, List.getElem?_append_right (Nat.le_refl _)]
    simp
    omega

/-- where the line begins that a place lies in, by the last byte 10 ahead of it -/
theorem seek (rs : List Ln) (hv : ∀ r ∈ rs, Good r) (t : ByteArray) (ht : t.data.toList = flatL rs) (i j m : Nat) (hij : i < j) (hj : j ≤ rs.length) (h1 : offN rs i ≤ m) (h2 : m < toN rs j) :
    ∃ k, i ≤ k ∧ k < j ∧ offN rs k ≤ m ∧ Lib.lastIndexByte (t.extract (offN rs i) m) 10 = (offN rs k : Int) - (offN rs i : Int) - 1 := by
  have hts : t.size = (flatL rs).length := by rw [Lib.size_eq, ht]
  have hto : toN rs j ≤ offN rs j := toN_le rs j j (Nat.le_refl _)
  have hto2 := toN_size rs j
  obtain ⟨k, a, b, c, d⟩ := line_of rs m j hj i hij h1 (by omega)
  refine ⟨k, a, b, c, ?_⟩
  have hsz : (t.extract (offN rs i) m).size = m - offN rs i := by rw [ByteArray.size_extract]; omega
  have hat : ∀ q, q < m - offN rs i → ((((t.extract (offN rs i) m).data[q]!).toNat : Int) = 10 ↔ (flatL rs)[offN rs i + q]? = some 10) := by
    intro q hq
    have hq' : q < (t.extract (offN rs i) m).data.size := by show q < (t.extract (offN rs i) m).size; omega
    have hq2 : offN rs i + q < (flatL rs).length := by omega
    have hq3 : offN rs i + q < t.data.size := by show _ < t.size; omega
    rw [getElem!_pos (t.extract (offN rs i) m).data q hq', List.getElem?_eq_getElem hq2]
    have e : (t.extract (offN rs i) m).data[q] = (flatL rs)[offN rs i + q] := by
      have := ByteArray.getElem_extract (b := t) (start := offN rs i) (stop := m) (i := q) (h := by omega)
      have e2 : t.data[offN rs i + q] = (flatL rs)[offN rs i + q] := by
        have : t.data.toList[offN rs i + q]? = (flatL rs)[offN rs i + q]? := by rw [ht]
        rw [List.getElem?_eq_getElem (by simpa using hq3), List.getElem?_eq_getElem hq2] at this
        simpa using this
      rw [← e2]
      exact this
    rw [e, Option.some.injEq, ← UInt8.toNat_inj]
    show _ ↔ _ = 10
    omega
  have hki : i ≤ k := a
  have hoi := offN_le rs hki
  rcases Lib.lastIndexByte_spec (t.extract (offN rs i) m) 10 with ⟨e, hn⟩ | ⟨q, hq, e, hc, hn⟩
  · rw [e]
    by_cases hik : i = k
    · subst hik; omega
    · exfalso
      obtain ⟨k', rfl⟩ : ∃ k', k = k' + 1 := ⟨k - 1, by omega⟩
      have h3 := offN_succ rs k' (by omega)
      have h4 := offN_le rs (i := i) (j := k') (by omega)
      refine hn (offN rs (k' + 1) - 1 - offN rs i) (by omega) ?_
      rw [hat _ (by omega)]
      exact (byte_in rs hv k' _ (by omega) (by omega) (by omega) (by omega)).2 (by omega)
  · rw [e]
    rw [hsz] at hq hn
    rw [hat q hq] at hc
    obtain ⟨k', a', b', c', d'⟩ := line_of rs (offN rs i + q) j hj i hij (by omega) (by omega)
    have h5 := (byte_in rs hv k' (offN rs i + q) (by omega) c' d' (by omega)).1 hc
    by_cases hlt : k' + 1 < k
    · exfalso
      obtain ⟨k2, rfl⟩ : ∃ k2, k = k2 + 1 := ⟨k - 1, by omega⟩
      have h3 := offN_succ rs k2 (by omega)
      have h4 := offN_le rs (i := k' + 1) (j := k2) (by omega)
      refine hn (offN rs (k2 + 1) - 1 - offN rs i) (by omega) (by omega) ?_
      rw [hat _ (by omega)]
      exact (byte_in rs hv k2 _ (by omega) (by omega) (by omega) (by omega)).2 (by omega)
    · have hkk : k' + 1 = k := by
        by_cases h6 : k' + 1 = k
        · exact h6
        · exfalso
          have h7 := offN_le rs (i := k + 1) (j := k' + 1) (by omega)
          omega
      rw [hkk] at h5
      omega

/-- texts rise: what a beginning is -/
theorem pre_le {q s : Txt} (h : q <+: s) : ¬ s < q := by
  induction q generalizing s with
  | nil => exact List.not_lt_nil _
  | cons x q ih =>
    obtain ⟨z, rfl⟩ := h
    rw [List.cons_append, List.cons_lt_cons_iff]
    rintro (h | ⟨-, h⟩)
    · exact absurd h (by simp)
    · exact ih (List.prefix_append _ _) h
theorem pre_between {q k s : Txt} (h : q <+: s) (h1 : ¬ k < q) (h2 : ¬ s < k) : q <+: k := by
  induction q generalizing k s with
  | nil => exact List.nil_prefix
  | cons x q ih =>
    obtain ⟨z, rfl⟩ := h
    cases k with
    | nil => exact absurd (List.nil_lt_cons _ _) h1
    | cons y k =>
      rw [List.cons_append, List.cons_lt_cons_iff, not_or, not_and] at h2
      rw [List.cons_lt_cons_iff, not_or, not_and] at h1
      have e : x = y := by
        have a := h1.1; have b := h2.1
        rw [UInt8.lt_iff_toNat_lt] at a b
        rw [← UInt8.toNat_inj]; omega
      subst e
      rw [List.cons_prefix_cons]
      exact ⟨rfl, ih (List.prefix_append _ _) (h1.2 rfl) (h2.2 rfl)⟩

/-- how many bytes two texts begin with alike -/
def alikeL : Txt → Txt → Nat
  | a :: x, b :: y => if a = b then alikeL x y + 1 else 0
  | _, _ => 0
theorem alikeL_le1 : ∀ a b, alikeL a b ≤ a.length
  | [], b => by simp [alikeL]
  | a :: x, [] => by simp [alikeL]
  | a :: x, b :: y => by
    unfold alikeL; split
    · have := alikeL_le1 x y; simp; omega
    · simp
theorem alikeL_le2 : ∀ a b, alikeL a b ≤ b.length
  | [], b => by simp [alikeL]
  | a :: x, [] => by simp [alikeL]
  | a :: x, b :: y => by
    unfold alikeL; split
    · have := alikeL_le2 x y; simp; omega
    · simp
theorem alikeL_pre1 : ∀ (a b : Txt), a.take (alikeL a b) <+: b
  | [], b => by simp [alikeL]
  | a :: x, [] => by simp [alikeL]
  | a :: x, b :: y => by
    unfold alikeL; split
    · rename_i h; subst h; rw [List.take_succ_cons, List.cons_prefix_cons]; exact ⟨rfl, alikeL_pre1 x y⟩
    · simp
theorem alikeL_ge : ∀ (q a b : Txt), q <+: a → q <+: b → q.length ≤ alikeL a b
  | [], _, _, _, _ => Nat.zero_le _
  | x :: q, [], b, h, _ => by simp at h
  | x :: q, a, [], _, h => by simp at h
  | x :: q, a :: u, b :: v, h1, h2 => by
    rw [List.cons_prefix_cons] at h1 h2
    obtain ⟨rfl, h1⟩ := h1
    obtain ⟨rfl, h2⟩ := h2
    have := alikeL_ge q u v h1 h2
    unfold alikeL; rw [if_pos rfl]; simp; omega
theorem alikeL_step (a b : Txt) (k : Nat) (ha : k < a.length) (hb : k < b.length) : alikeL (a.drop k) (b.drop k) = if a[k] = b[k] then alikeL (a.drop (k + 1)) (b.drop (k + 1)) + 1 else 0 := by
  rw [List.drop_eq_getElem_cons ha, List.drop_eq_getElem_cons hb]; rfl
theorem alikeL_end (a b : Txt) (k : Nat) (h : a.length ≤ k ∨ b.length ≤ k) : alikeL (a.drop k) (b.drop k) = 0 := by
  rcases h with h | h
  · rw [List.drop_eq_nil_of_le h]; unfold alikeL; rfl
  · rw [List.drop_eq_nil_of_le h]
    cases a.drop k <;> rfl

/-- how many lines have keys that don't stand behind s -/
def amI (rs : List Ln) (s : Txt) : Nat := rs.findIdx fun r => decide (s < r.1)
def keyAt (rs : List Ln) : Nat → Txt
  | 0 => []
  | i + 1 => ((rs[i]?).getD ([], [])).1
def restAt (rs : List Ln) : Nat → Txt
  | 0 => []
  | i + 1 => ((rs[i]?).getD ([], [])).2
theorem keyAt_succ (rs : List Ln) (i : Nat) (h : i < rs.length) : keyAt rs (i + 1) = rs[i].1 := by simp [keyAt, h]
theorem restAt_succ (rs : List Ln) (i : Nat) (h : i < rs.length) : restAt rs (i + 1) = rs[i].2 := by simp [restAt, h]
theorem amI_le (rs : List Ln) (s : Txt) : amI rs s ≤ rs.length := List.findIdx_le_length
theorem amI_below (rs : List Ln) (s : Txt) (k : Nat) (h : k < amI rs s) : ¬ s < (rs[k]'(Nat.lt_of_lt_of_le h (amI_le rs s))).1 := by
  have := List.not_of_lt_findIdx (p := fun r : Ln => decide (s < r.1)) (xs := rs) h
  simpa using this
theorem Valid.rise {rs : List Ln} (h : Valid rs) {i j : Nat} (hij : i < j) (hj : j < rs.length) : (rs[i]'(by omega)).1 < rs[j].1 := List.pairwise_iff_getElem.1 h.2 i j (by omega) hj hij
theorem amI_above {rs : List Ln} (h : Valid rs) (s : Txt) (k : Nat) (h1 : amI rs s ≤ k) (hk : k < rs.length) : s < rs[k].1 := by
  have h2 : amI rs s < rs.length := by omega
  have h3 : s < rs[amI rs s].1 := by
    have := List.findIdx_getElem (p := fun r : Ln => decide (s < r.1)) (xs := rs) (w := h2)
    exact of_decide_eq_true this
  by_cases e : amI rs s = k
  · subst e; exact h3
  · exact List.lt_trans h3 (h.rise (by omega) hk)
theorem amI_eq {rs : List Ln} (s : Txt) (i : Nat) (hi : i ≤ rs.length) (h1 : ∀ k (hk : k < rs.length), k < i → ¬ s < rs[k].1) (h2 : ∀ k (hk : k < rs.length), i ≤ k → s < rs[k].1) : amI rs s = i := by
  unfold amI
  by_cases hl : i < rs.length
  · rw [List.findIdx_eq hl]
    exact ⟨by simpa using h2 i hl (Nat.le_refl _), fun j hj => by simpa using h1 j (by omega) hj⟩
  · have : i = rs.length := by omega
    rw [this]
    refine List.findIdx_eq_length_of_false fun x hx => ?_
    obtain ⟨k, hk, rfl⟩ := List.getElem_of_mem hx
    simpa using h1 k hk (by omega)
theorem key_keeps {rs : List Ln} (h : Valid rs) (s : Txt) (k i : Nat) (hk : k < rs.length) (hi : i ≤ k) (h1 : ¬ s < rs[k].1) : ¬ s < (rs[i]'(by omega)).1 := by
  intro h2
  by_cases e : i = k
  · subst e; exact h1 h2
  · exact h1 (List.lt_trans h2 (h.rise (by omega) hk))
theorem key_rises {rs : List Ln} (h : Valid rs) (s : Txt) (k i : Nat) (hk : k < rs.length) (hi : i < rs.length) (hki : k ≤ i) (h1 : s < rs[k].1) : s < rs[i].1 := by
  by_cases e : k = i
  · subst e; exact h1
  · exact List.lt_trans h1 (h.rise (by omega) hi)

/-- P5.1: the rest of a key's line -/
def lookL (rs : List Ln) (key : Txt) : Option Txt := (rs.find? fun r => r.1 == key).map (·.2)
theorem lookL_none (rs : List Ln) (key : Txt) (h : ∀ r ∈ rs, r.1 ≠ key) : lookL rs key = none := by
  unfold lookL
  rw [List.find?_eq_none.2 (fun x hx => by simpa using h x hx)]
  rfl
theorem lookL_at {rs : List Ln} (h : Valid rs) (i : Nat) (hi : i < rs.length) : lookL rs rs[i].1 = some rs[i].2 := by
  unfold lookL
  have : rs.find? (fun r => r.1 == rs[i].1) = some rs[i] := by
    rw [List.find?_eq_some_iff_getElem]
    refine ⟨by simp, i, hi, rfl, fun j hj => ?_⟩
    have := h.rise hj hi
    simp only [Bool.not_eq_true', beq_eq_false_iff_ne]
    intro e
    rw [e] at this
    exact List.lt_irrefl _ this
  rw [this]; rfl
theorem amI_key {rs : List Ln} (h : Valid rs) (i : Nat) (hi : i < rs.length) : amI rs rs[i].1 = i + 1 :=
  amI_eq _ _ hi (fun k hk hki => key_keeps h _ i k hi (by omega) (List.lt_irrefl _)) (fun k hk hik => h.rise (by omega) hk)
/-- what Line tells, by the line that does not stand behind the key -/
theorem line_yes {rs : List Ln} (h : Valid rs) (key : Txt) (hne : key ≠ []) (he : keyAt rs (amI rs key) = key) : lookL rs key = some (restAt rs (amI rs key)) := by
  cases ha : amI rs key with
  | zero => rw [ha] at he; exact absurd he.symm hne
  | succ i =>
    have hi : i < rs.length := by have := amI_le rs key; omega
    rw [ha, keyAt_succ rs i hi] at he
    rw [restAt_succ rs i hi, ← he]
    exact lookL_at h i hi
theorem line_no {rs : List Ln} (h : Valid rs) (key : Txt) (he : key = [] ∨ keyAt rs (amI rs key) ≠ key) : lookL rs key = none := by
  refine lookL_none rs key fun r hr e => ?_
  obtain ⟨i, hi, rfl⟩ := List.getElem_of_mem hr
  rcases he with he | he
  · subst he; exact (h.1 _ hr).1 e
  · apply he
    rw [← e, amI_key h i hi, keyAt_succ rs i hi]

/-- P5.2: the longest key that s begins with -/
def bestL (rs : List Ln) (s : Txt) : Nat := rs.foldl (fun b r => if r.1.isPrefixOf s ∧ b < r.1.length then r.1.length else b) 0
theorem best_fold (s : Txt) : ∀ (rs : List Ln) (b : Nat), (∀ r ∈ rs, r.1 <+: s → r.1.length ≤ rs.foldl (fun b r => if r.1.isPrefixOf s ∧ b < r.1.length then r.1.length else b) b) ∧ b ≤ rs.foldl (fun b r => if r.1.isPrefixOf s ∧ b < r.1.length then r.1.length else b) b ∧
    (rs.foldl (fun b r => if r.1.isPrefixOf s ∧ b < r.1.length then r.1.length else b) b = b ∨ ∃ r ∈ rs, r.1 <+: s ∧ rs.foldl (fun b r => if r.1.isPrefixOf s ∧ b < r.1.length then r.1.length else b) b = r.1.length)
  | [], b => ⟨by simp, Nat.le_refl _, .inl rfl⟩
  | r :: rs, b => by
    rw [List.foldl_cons]
    obtain ⟨h1, h2, h3⟩ := best_fold s rs (if r.1.isPrefixOf s ∧ b < r.1.length then r.1.length else b)
    refine ⟨?_, ?_, ?_⟩
    · intro x hx hp
      rcases List.mem_cons.1 hx with rfl | hx
      · refine Nat.le_trans ?_ h2
        split
        · exact Nat.le_refl _
        · rename_i hn
          have : x.1.isPrefixOf s := List.isPrefixOf_iff_prefix.2 hp
          simp only [this, true_and] at hn
          omega
      · exact h1 x hx hp
    · refine Nat.le_trans ?_ h2
      split
      · rename_i hn; omega
      · exact Nat.le_refl _
    · rcases h3 with h3 | ⟨x, hx, hp, e⟩
      · rw [h3]
        split
        · rename_i hn
          exact .inr ⟨r, List.mem_cons_self, List.isPrefixOf_iff_prefix.1 hn.1, rfl⟩
        · exact .inl rfl
      · exact .inr ⟨x, List.mem_cons_of_mem _ hx, hp, e⟩
theorem best_ge (rs : List Ln) (s : Txt) (r : Ln) (hr : r ∈ rs) (hp : r.1 <+: s) : r.1.length ≤ bestL rs s := (best_fold s rs 0).1 r hr hp
theorem best_mem (rs : List Ln) (s : Txt) : bestL rs s = 0 ∨ ∃ r ∈ rs, r.1 <+: s ∧ bestL rs s = r.1.length := (best_fold s rs 0).2.2
theorem best_le (rs : List Ln) (s : Txt) : bestL rs s ≤ s.length := by
  rcases best_mem rs s with h | ⟨r, _, hp, h⟩
  · omega
  · rw [h]; exact hp.length_le
theorem best_eq (rs : List Ln) (s : Txt) (n : Nat) (h1 : ∀ r ∈ rs, r.1 <+: s → r.1.length ≤ n) (h2 : n = 0 ∨ ∃ r ∈ rs, r.1 <+: s ∧ n = r.1.length) : bestL rs s = n := by
  have a : n ≤ bestL rs s := by
    rcases h2 with h2 | ⟨r, hr, hp, e⟩
    · omega
    · rw [e]; exact best_ge rs s r hr hp
  have b : bestL rs s ≤ n := by
    rcases best_mem rs s with h | ⟨r, hr, hp, e⟩
    · omega
    · rw [e]; exact h1 r hr hp
  omega
/-- the step of the search: each key that s begins with begins the last key that doesn't stand behind s -/
theorem best_alike {rs : List Ln} (h : Valid rs) (s : Txt) (r : Ln) (hr : r ∈ rs) (hp : r.1 <+: s) : r.1.length ≤ alikeL (keyAt rs (amI rs s)) s := by
  refine alikeL_ge _ _ _ ?_ hp
  obtain ⟨k, hk, rfl⟩ := List.getElem_of_mem hr
  have h1 : k < amI rs s := by
    refine Nat.lt_of_not_le fun h2 => ?_
    exact pre_le hp (amI_above h s k h2 hk)
  obtain ⟨m, hm⟩ : ∃ m, amI rs s = m + 1 := ⟨amI rs s - 1, by omega⟩
  have hm' : m < rs.length := by have := amI_le rs s; omega
  rw [hm, keyAt_succ rs m hm']
  have h3 : ¬ s < rs[m].1 := amI_below rs s m (by omega)
  refine pre_between hp ?_ h3
  by_cases e : k = m
  · subst e; exact List.lt_irrefl _
  · exact fun h4 => List.lt_asymm h4 (h.rise (by omega) hm')
theorem best_done {rs : List Ln} (h : Valid rs) (s : Txt) (he : alikeL (keyAt rs (amI rs s)) s = (keyAt rs (amI rs s)).length) : bestL rs s = alikeL (keyAt rs (amI rs s)) s := by
  refine best_eq rs s _ (fun r hr hp => best_alike h s r hr hp) ?_
  cases ha : amI rs s with
  | zero => exact .inl (by simp [keyAt, alikeL])
  | succ m =>
    have hm' : m < rs.length := by have := amI_le rs s; omega
    rw [ha, keyAt_succ rs m hm'] at he
    refine .inr ⟨rs[m], List.getElem_mem hm', ?_, by rw [keyAt_succ rs m hm', he]⟩
    have := alikeL_pre1 rs[m].1 s
    rwa [he, List.take_of_length_le (Nat.le_refl _)] at this
theorem best_less {rs : List Ln} (h : Valid rs) (s : Txt) (he : alikeL (keyAt rs (amI rs s)) s ≠ (keyAt rs (amI rs s)).length) :
    alikeL (keyAt rs (amI rs s)) s < s.length ∧ bestL rs (s.take (alikeL (keyAt rs (amI rs s)) s)) = bestL rs s := by
  have l1 := alikeL_le1 (keyAt rs (amI rs s)) s
  have l2 := alikeL_le2 (keyAt rs (amI rs s)) s
  constructor
  · refine Nat.lt_of_not_le fun h1 => ?_
    have e2 : alikeL (keyAt rs (amI rs s)) s = s.length := by omega
    have hp := alikeL_pre1 (keyAt rs (amI rs s)) s
    rw [e2] at hp l1 he
    cases ha : amI rs s with
    | zero => rw [ha] at he l1; simp [keyAt] at he l1; exact he l1
    | succ m =>
      have hm' : m < rs.length := by have := amI_le rs s; omega
      have h3 : ¬ s < rs[m].1 := amI_below rs s m (by omega)
      rw [ha, keyAt_succ rs m hm'] at hp he l1
      have e3 : rs[m].1.take s.length = s := hp.eq_of_length (by rw [List.length_take]; omega)
      apply h3
      have h4 : s <+: rs[m].1 := by
        have := List.take_prefix s.length rs[m].1
        rwa [e3] at this
      obtain ⟨z, hz⟩ := h4
      rw [← hz]
      cases z with
      | nil => simp at hz; rw [hz] at he; exact absurd rfl he
      | cons c z =>
        have : ∀ (a : Txt), a < a ++ c :: z := by
          intro a
          induction a with
          | nil => exact List.nil_lt_cons _ _
          | cons x a ih => rw [List.cons_append, List.cons_lt_cons_iff]; exact .inr ⟨rfl, ih⟩
        exact this s
  · refine best_eq rs _ _ (fun r hr hp => best_ge rs s r hr (hp.trans (List.take_prefix _ _))) ?_
    rcases best_mem rs s with e | ⟨r, hr, hp, e⟩
    · exact .inl e
    · refine .inr ⟨r, hr, ?_, e⟩
      exact List.prefix_of_prefix_length_le hp (List.take_prefix _ _) (by
        rw [List.length_take]
        have := best_alike h s r hr hp
        have := hp.length_le
        omega)
/-- the text that is searched for the longest key -/
def winL (s : Txt) (a m : Int) : Txt := if a < 0 ∨ m < 1 then [] else (s.drop a.toNat).take m.toNat
theorem best_nil (rs : List Ln) : bestL rs [] = 0 := by have := best_le rs []; simpa using this

end Go.Proofs.YtbcmfcddkegcoaaGreatDoor

/-! What strings.Clone and strings.Cut (at one byte) answer at this program. -/
namespace Go.Proofs.YtbcmfcddkegcoaaGreatDoor
open Go.RowKit Go.Lib

theorem indexByte_hit : ∀ (L : List UInt8) (c : UInt8) (z : List UInt8), c ∉ L → Lib.indexByte (L ++ c :: z) c = (L.length : Int)
  | [], c, z, _ => by simp [Lib.indexByte]
  | b :: L, c, z, h => by
    rw [List.mem_cons, not_or] at h
    have ih := indexByte_hit L c z h.2
    rw [List.cons_append, Lib.indexByte, if_neg (by simpa using fun e => h.1 e.symm), ih]
    rw [if_neg (by simp)]
    simp
theorem indexByte_miss : ∀ (L : List UInt8) (c : UInt8), c ∉ L → Lib.indexByte L c = -1
  | [], c, _ => rfl
  | b :: L, c, h => by
    rw [List.mem_cons, not_or] at h
    have ih := indexByte_miss L c h.2
    rw [Lib.indexByte, if_neg (by simpa using fun e => h.1 e.symm), ih]
    rfl

set_option maxRecDepth 100000 in
set_option maxHeartbeats 1000000 in
theorem clone_any (s : ByteArray) (w : World) (hs : s.size ≤ 1099511627776) :
    Calls Tryz.prog 147 #[.string s] w fun e w' => e = .returned (.string s) ∧ Below w.heap.size w w' := by
  go_enter Tryz.func147, Tryz.ntmps147
  go_wp2_with (go_at_call 164; refine (Tryz.stringslite_Clone s _ (by omega)).mono ?_)
  rintro e w1 ⟨rfl, b1⟩
  go_wp2
  go_ret
  exact ⟨rfl, b1⟩

/-- the three things that are told -/
def cutV (L rest : List UInt8) : Value := .tuple #[.string ⟨L.toArray⟩, .string ⟨rest.tail.toArray⟩, .bool (!rest.isEmpty)]

set_option maxRecDepth 100000 in
set_option maxHeartbeats 1000000 in
theorem liteCut (s : ByteArray) (c : UInt8) (L rest : List UInt8) (w : World) (hs : s.size ≤ 1099511627776) (he : s.data.toList = L ++ rest) (hc : c ∉ L) (hr : rest = [] ∨ ∃ z, rest = c :: z) :
    Calls Tryz.prog 128 #[.string s, .string ⟨#[c]⟩] w fun e w' => e = .returned (cutV L rest) ∧ ∃ n, w' = w.drewN n := by
  have hsl : s.size = L.length + rest.length := by rw [Lib.size_eq, he, List.length_append]
  rcases hr with rfl | ⟨z, rfl⟩
  · have hx := Lib.hid (show Lib.indexByte s.data.toList c = -1 by rw [he, List.append_nil]; exact indexByte_miss L c hc)
    have HS := Lib.hid (show (⟨L.toArray⟩ : ByteArray) = s from str_ext (by rw [he]; simp))
    clear he hsl
    go_enter Tryz.func128, Tryz.ntmps128
    go_wp2_with (go_at_call 141; refine (Tryz.stringslite_Index_one s c _).mono ?_; rintro e w' ⟨rfl, rfl⟩; rw [hx.out])
    go_ret3
    refine ⟨?_, 0, rfl⟩
    unfold cutV
    rw [HS.out]; rfl
  · have hx := Lib.hid (show Lib.indexByte s.data.toList c = (L.length : Int) by rw [he]; exact indexByte_hit L c z hc)
    have hl2 : L.length + 1 ≤ s.size := by rw [hsl]; simp
    have HA := Lib.hid (show s.extract 0 L.length = ⟨L.toArray⟩ from str_ext (by rw [extract_data, he]; simp))
    have HB := Lib.hid (show s.extract (L.length + 1) s.size = ⟨z.toArray⟩ from str_ext (by
      have e : (L ++ c :: z).drop (L.length + 1) = z := by simp
      rw [List.length_cons] at hsl
      rw [extract_data, he, e, List.take_of_length_le (by omega)]))
    clear he hsl
    obtain ⟨l, hl⟩ : ∃ l, l = L.length := ⟨_, rfl⟩
    rw [← hl] at hx hl2 HA HB
    clear hl
    have HI := fun w => Lib.hid (Tryz.stringslite_Index_one s c w)
    obtain ⟨sep, hsep, hs1⟩ : ∃ sep : ByteArray, sep = ⟨#[c]⟩ ∧ sep.size = 1 := ⟨_, rfl, rfl⟩
    rw [← hsep] at HI ⊢
    clear hsep
    rw [← hs1] at hl2 HB
    have hs1' := Lib.hid hs1
    clear hs1
    have c1 : (0 : Int) ≤ (l : Int) := by omega
    have c2 : (l : Int) ≤ (s.size : Int) := by omega
    have c3 : (0 : Int) ≤ (l : Int) + (sep.size : Int) := by omega
    have c4 : (l : Int) + (sep.size : Int) ≤ (s.size : Int) := by omega
    have c5 : IntKind.i64.wrap ((l : Int) + (sep.size : Int)) = (l : Int) + (sep.size : Int) := by rw [IntKind.wrap_i64]; omega
    have c6 : ((l : Int) + (sep.size : Int)).toNat = l + sep.size := by omega
    go_enter Tryz.func128, Tryz.ntmps128
    go_wp2_with (go_at_call 141; refine ((HI _).out).mono ?_; rintro e w' ⟨rfl, rfl⟩; rw [hx.out])
    go_quiet (fail)
    go_wp2
    go_ret3
    refine ⟨?_, _, rfl⟩
    unfold cutV
    first | (rw [HA.out, HB.out]; rfl) | trace_state

set_option maxRecDepth 100000 in
set_option maxHeartbeats 1000000 in
theorem cut_any (s : ByteArray) (c : UInt8) (L rest : List UInt8) (w : World) (hs : s.size ≤ 1099511627776) (he : s.data.toList = L ++ rest) (hc : c ∉ L) (hr : rest = [] ∨ ∃ z, rest = c :: z) :
    Calls Tryz.prog 107 #[.string s, .string ⟨#[c]⟩] w fun e w' => e = .returned (cutV L rest) ∧ ∃ n, w' = w.drewN n := by
  have HC := Lib.hid (fun w => liteCut s c L rest w hs he hc hr)
  clear he hc hr
  unfold cutV at *
  go_enter Tryz.func107, Tryz.ntmps107
  go_wp2_with (go_at_call 128; refine (HC.out _).mono ?_)
  rintro e w1 ⟨rfl, n, rfl⟩
  go_wp2
  go_ret3
  exact ⟨rfl, n, rfl⟩

end Go.Proofs.YtbcmfcddkegcoaaGreatDoor

/-! What package search's atMost, alike, Longest and Line answer, for every sorted list. -/
namespace Go.Proofs.YtbcmfcddkegcoaaGreatDoor
open Go.RowKit Go.Lib

theorem less_eq : ∀ (x y : List UInt8), Op.bytesLess x y = decide (x < y)
  | [], [] => by simp [Op.bytesLess]
  | [], b :: y => by simp [Op.bytesLess]
  | a :: x, [] => by simp [Op.bytesLess]
  | a :: x, b :: y => by
    have ih := less_eq x y
    have e : (a :: x < b :: y) ↔ (a < b ∨ a = b ∧ x < y) := List.cons_lt_cons_iff
    unfold Op.bytesLess
    rw [ih, Bool.eq_iff_iff]
    simp only [Bool.or_eq_true, Bool.and_eq_true, decide_eq_true_eq, beq_iff_eq, e]

def strV (l : List UInt8) : Value := .string ⟨l.toArray⟩

/-- the frame at the label -/
def frA (t s : ByteArray) (K R : List UInt8) (a b : Int) (u : Nat → Value) : Act :=
  { tmps := #[.string t, .string s, u 2, u 3, strV K, strV R, .int .i64 a, .int .i64 b, u 8, u 9, u 10, u 11, u 12, u 13, u 14, u 15, u 16, u 17, u 18, u 19, u 20, u 21, u 22, u 23, u 24, u 25, u 26, u 27, u 28, u 29, u 30, u 31, u 32, u 33, u 34, u 35, u 36, u 37, u 38, u 39, u 40, u 41, u 42, u 43, u 44, u 45, u 46, u 47, u 48, u 49, u 50, u 51, u 52, u 53, u 54, u 55, u 56, u 57, u 58, u 59, u 60, u 61, u 62], defers := [] }

set_option maxRecDepth 100000 in
set_option maxHeartbeats 4000000 in
theorem atMost_any (t s : ByteArray) (rs : List Ln) (w : World) (hs : t.size ≤ 1099511627776) (ht : t.data.toList = flatL rs) (hv : Valid rs) :
    Calls Tryz.prog 170 #[.string t, .string s] w fun e w' => e = .returned (.tuple #[strV (keyAt rs (amI rs s.data.toList)), strV (restAt rs (amI rs s.data.toList))]) ∧ ∃ n, w' = w.drewN n := by
  have hts : t.size = (flatL rs).length := by rw [Lib.size_eq, ht]
  obtain ⟨A, hA⟩ : ∃ A, amI rs s.data.toList = A := ⟨_, rfl⟩
  rw [hA]
  have HA := Lib.hid hA
  clear hA
  go_enter Tryz.func170, Tryz.ntmps170
  go_wp2
  refine wp_scope_label 0 (fun a' wr => ∃ (i j n : Nat), a' = frA t s (keyAt rs i) (restAt rs i) (offN rs i : Int) (toN rs j : Int) (fun n => a'.tmps.getD n undef) ∧ wr = w.drewN n ∧ i ≤ j ∧ j ≤ rs.length ∧ (∀ k (hk : k < rs.length), k < i → ¬ s.data.toList < rs[k].1) ∧ (∀ k (hk : k < rs.length), j ≤ k → s.data.toList < rs[k].1))
    (fun a' _ => (intOf (a'.tmps.getD 7 undef)).toNat - (intOf (a'.tmps.getD 6 undef)).toNat) rfl ?_ ?_
  · rintro a' wr ⟨i, j, n, hfr, rfl, hij, hj, hlo, hhi⟩
    obtain ⟨u, rfl⟩ : ∃ u, a' = frA t s (keyAt rs i) (restAt rs i) (offN rs i : Int) (toN rs j : Int) u := ⟨_, hfr⟩
    clear hfr
    unfold frA
    by_cases hend : i = j
    · subst hend
      have h1 := toN_le rs i i (Nat.le_refl _)
      obtain rfl : i = A := (amI_eq s.data.toList i hj hlo hhi).symm.trans HA.out
      clear HA hlo hhi
      go_wp2
      simp only [Exit.jump]
      go_ret2
      exact ⟨rfl, n, rfl⟩
    · have hlt : i < j := by omega
      obtain ⟨a, ha⟩ : ∃ a, offN rs i = a := ⟨_, rfl⟩
      obtain ⟨b, hb⟩ : ∃ b, toN rs j = b := ⟨_, rfl⟩
      have h1 : a < b := by
        have := offN_lt_to rs i j hlt hj
        have := lineL_len (rs[i]'(by omega))
        omega
      have h2 : b ≤ t.size := by rw [hts, ← hb]; exact toN_size rs j
      obtain ⟨k, hik, hkj, hkm, hL⟩ := seek rs hv.1 t ht i j (a + (b - a) / 2) hlt hj (by omega) (by omega)
      have hk : k < rs.length := by omega
      obtain ⟨z, hz, hz2⟩ := line_at rs k j hkj hj
      obtain ⟨c, hc⟩ : ∃ c, offN rs k = c := ⟨_, rfl⟩
      have hac : a ≤ c := by rw [← ha, ← hc]; exact offN_le rs hik
      rw [hc] at hkm hL hz
      rw [ha] at hL
      rw [hb] at hz
      have hcl := offN_lt_to rs k j hkj hj
      rw [hb, hc] at hcl
      have hg := hv.1 _ (List.getElem_mem hk)
      obtain ⟨r, hr⟩ : ∃ r, rs[k] = r := ⟨_, rfl⟩
      rw [hr] at hz hcl hg
      have hlen := lineL_len r
      have hsz1 : (t.extract c b).size ≤ 1099511627776 := by rw [ByteArray.size_extract]; omega
      have HC1 := fun w => Lib.hid (cut_any (t.extract c b) 10 (lineL r) z w hsz1 (by rw [extract_data, ht, ← List.drop_take, hz]) hg.line hz2)
      have HC2 := fun w => Lib.hid (cut_any ⟨(lineL r).toArray⟩ 32 r.1 (32 :: r.2) w (by rw [Lib.size_eq, List.toList_toArray]; omega) rfl hg.2.1 (.inr ⟨_, rfl⟩))
      have HL := Lib.hid hL
      have HSL := Lib.hid (show (⟨(lineL r).toArray⟩ : ByteArray).size = (lineL r).length by rw [Lib.size_eq, List.toList_toArray])
      have Ha := Lib.hid ha
      have Hb := Lib.hid hb
      have Hc := Lib.hid hc
      have Hr := Lib.hid hr
      rw [ha, hb]
      have HLO := Lib.hid hlo
      have HHI := Lib.hid hhi
      have HZ := Lib.hid hz
      have HG := Lib.hid hg
      clear ha hb hc hr hL hz hz2 hg hlo hhi ht hts hsz1
      have hm1 : (t.extract a (a + (b - a) / 2)).size < 4611686018427387904 := by rw [ByteArray.size_extract]; omega
      have e1 : (a : Int) + ((c : Int) - (a : Int) - 1) + 1 = (c : Int) := by omega
      unfold cutV at HC1 HC2
      rcases Std.lt_trichotomy s.data.toList r.1 with h | h | h
      · have b1 : Op.bytesLess r.1 s.toList = false := by rw [less_eq, ByteArray.toList_eq]; exact decide_eq_false (List.lt_asymm h)
        have b2 : (r.1 == s.toList) = false := by rw [ByteArray.toList_eq, beq_eq_false_iff_ne]; intro e; rw [e] at h; exact List.lt_irrefl _ h
        have HLT := Lib.hid h
        clear h
        go_wp2_with (go_at_call 173; refine (Tryz.strings_LastIndexByte _ 10 hm1 _).mono ?_; rintro e w' ⟨rfl, rfl⟩; rw [HL.out])
        refine (HC1 _).out.mono ?_
        rintro e w1 ⟨rfl, n1, rfl⟩
        go_wp2_with (fail)
        refine (HC2 _).out.mono ?_
        rintro e w1 ⟨rfl, n2, rfl⟩
        go_wp2
        go_step3
        refine ⟨rfl, ⟨i, k, n + n1 + n2, ?_, rfl, by omega, by omega, HLO.out, fun q hq hqk => key_rises hv _ k q hk hq hqk (by rw [Hr.out]; exact HLT.out)⟩, ?_⟩
        · rw [toN_at rs k hk, Hc.out, Ha.out]
          rfl
        · simp [intOf]; omega
      · have b2 : (r.1 == s.toList) = true := by rw [ByteArray.toList_eq, beq_iff_eq]; exact h.symm
        have HLT := Lib.hid (show ¬ s.data.toList < r.1 by rw [h]; exact List.lt_irrefl _)
        clear h
        go_wp2_with (go_at_call 173; refine (Tryz.strings_LastIndexByte _ 10 hm1 _).mono ?_; rintro e w' ⟨rfl, rfl⟩; rw [HL.out])
        refine (HC1 _).out.mono ?_
        rintro e w1 ⟨rfl, n1, rfl⟩
        go_wp2_with (fail)
        refine (HC2 _).out.mono ?_
        rintro e w1 ⟨rfl, n2, rfl⟩
        go_wp2
        go_step3
        refine ⟨rfl, ⟨k + 1, j, n + n1 + n2, ?_, rfl, by omega, hj, fun q hq hqk => key_keeps hv _ k q hk (by omega) (by rw [Hr.out]; exact HLT.out), HHI.out⟩, ?_⟩
        · rw [keyAt_succ rs k hk, restAt_succ rs k hk, offN_succ rs k hk, Hr.out, Hb.out, Hc.out, hlen]
          push_cast
          rfl
        · simp [intOf]; omega
      · have b1 : Op.bytesLess r.1 s.toList = true := by rw [less_eq, ByteArray.toList_eq]; exact decide_eq_true h
        have HLT := Lib.hid (List.lt_asymm h)
        clear h
        go_wp2_with (go_at_call 173; refine (Tryz.strings_LastIndexByte _ 10 hm1 _).mono ?_; rintro e w' ⟨rfl, rfl⟩; rw [HL.out])
        refine (HC1 _).out.mono ?_
        rintro e w1 ⟨rfl, n1, rfl⟩
        go_wp2_with (fail)
        refine (HC2 _).out.mono ?_
        rintro e w1 ⟨rfl, n2, rfl⟩
        go_wp2
        go_step3
        refine ⟨rfl, ⟨k + 1, j, n + n1 + n2, ?_, rfl, by omega, hj, fun q hq hqk => key_keeps hv _ k q hk (by omega) (by rw [Hr.out]; exact HLT.out), HHI.out⟩, ?_⟩
        · rw [keyAt_succ rs k hk, restAt_succ rs k hk, offN_succ rs k hk, Hr.out, Hb.out, Hc.out, hlen]
          push_cast
          rfl
        · simp [intOf]; omega
  · intro hpass
    go_wp2
    go_step3
    rename_i K hK
    refine hK _ _ (hpass _ _ ?_)
    exact ⟨0, rs.length, 0, by rw [toN_all, ← hts]; rfl, rfl, Nat.zero_le _, Nat.le_refl _, fun k _ h => by omega, fun k h1 h2 => by omega⟩

end Go.Proofs.YtbcmfcddkegcoaaGreatDoor

/-! What package search's Line and Longest answer, for every sorted list. -/
namespace Go.Proofs.YtbcmfcddkegcoaaGreatDoor
open Go.RowKit Go.Lib

theorem dr_below (B : Nat) (w : World) (n : Nat) : Below B w (w.drewN n) := ⟨rfl, rfl, rfl, Nat.le_refl _, fun _ _ => rfl⟩
theorem at_list (a : ByteArray) (k : Nat) (h : k < a.size) : a.data.toList[k]'(by rw [← Lib.size_eq]; exact h) = a[k] := by
  rw [Array.getElem_toList]; rfl
theorem alike_yes (a b : ByteArray) (k T : Nat) (ha : k < a.size) (hb : k < b.size) (h : ((a[k].toNat : Nat) : Int) = (b[k].toNat : Int)) (hT : alikeL (a.data.toList.drop k) (b.data.toList.drop k) + k = T) :
    alikeL (a.data.toList.drop (k + 1)) (b.data.toList.drop (k + 1)) + (k + 1) = T := by
  rw [alikeL_step _ _ k (by rw [← Lib.size_eq]; exact ha) (by rw [← Lib.size_eq]; exact hb), at_list a k ha, at_list b k hb, if_pos (UInt8.toNat_inj.1 (by omega))] at hT
  omega
theorem alike_no (a b : ByteArray) (k T : Nat) (ha : k < a.size) (hb : k < b.size) (h : ¬ ((a[k].toNat : Nat) : Int) = (b[k].toNat : Int)) (hT : alikeL (a.data.toList.drop k) (b.data.toList.drop k) + k = T) : k = T := by
  rw [alikeL_step _ _ k (by rw [← Lib.size_eq]; exact ha) (by rw [← Lib.size_eq]; exact hb), at_list a k ha, at_list b k hb, if_neg (fun e => h (by rw [e]))] at hT
  omega

set_option maxRecDepth 100000 in
set_option maxHeartbeats 1000000 in
theorem alike_any (a b : ByteArray) (w : World) (hs : a.size ≤ 1099511627776) :
    Calls Tryz.prog 171 #[.string a, .string b] w fun e w' => e = .returned (.int .i64 (alikeL a.data.toList b.data.toList : Int)) ∧ ∃ n, w' = w.drewN n := by
  obtain ⟨T, hT⟩ : ∃ T, alikeL a.data.toList b.data.toList = T := ⟨_, rfl⟩
  rw [hT]
  obtain ⟨m, hm⟩ : ∃ m : Nat, min (a.size : Int) (b.size : Int) = (m : Int) := ⟨min a.size b.size, by omega⟩
  have hm1 : m ≤ a.size := by omega
  have hm2 : m ≤ b.size := by omega
  have hm3 : a.size ≤ m ∨ b.size ≤ m := by omega
  have HM3 := Lib.hid hm3
  clear hm3
  have HT := Lib.hid (show alikeL (a.data.toList.drop 0) (b.data.toList.drop 0) + 0 = T from hT)
  clear hT
  go_enter Tryz.func171, Tryz.ntmps171
  go_wp2
  go_loopw [11] (fun v wr => ∃ (k n : Nat), v = .int .i64 (k : Int) ∧ wr = w.drewN n ∧ k ≤ m ∧ alikeL (a.data.toList.drop k) (b.data.toList.drop k) + k = T) (fun v _ => m - (intOf v).toNat)
  case atStart => exact ⟨0, 0, rfl, rfl, Nat.zero_le _, HT.out⟩
  case round =>
    obtain ⟨k, n, rfl, rfl, hk, hT⟩ := hrel
    have HK := Lib.hid hT
    clear hT HT
    by_cases hlt : k < m
    · have ka : k < a.size := by omega
      have kb : k < b.size := by omega
      by_cases he : ((a[k].toNat : Nat) : Int) = (b[k].toNat : Int)
      · have hb : (((a[k].toNat : Nat) : Int) != ((b[k].toNat : Nat) : Int)) = false := by simpa using he
        have HE := Lib.hid he
        clear he
        go_wp2
        go_quiet (fail)
        go_wp2
        go_roundw
        case rel => exact ⟨k + 1, _, rfl, rfl, by omega, alike_yes a b k T ka kb HE.out HK.out⟩
        case measure => simp [intOf]; omega
      · have hb : (((a[k].toNat : Nat) : Int) != ((b[k].toNat : Nat) : Int)) = true := by simpa using he
        have HE := Lib.hid he
        clear he
        go_wp2
        go_quiet (fail)
        go_wp2
        go_ret
        exact ⟨ret_int (by rw [← alike_no a b k T ka kb HE.out HK.out]), _, World.drewN_drewN ..⟩
    · obtain rfl : k = m := by omega
      go_wp2
      go_ret
      exact ⟨ret_int (by
        have := HK.out
        rw [alikeL_end _ _ k (by rw [← Lib.size_eq, ← Lib.size_eq]; exact HM3.out)] at this
        omega), _, rfl⟩

set_option maxRecDepth 100000 in
set_option maxHeartbeats 1000000 in
theorem line_any (t key : ByteArray) (rs : List Ln) (w : World) (hs : t.size ≤ 1099511627776) (ht : t.data.toList = flatL rs) (hv : Valid rs) :
    Calls Tryz.prog 161 #[.string t, .string key] w fun e w' => e = .returned (.tuple #[strV ((lookL rs key.data.toList).getD []), .bool (lookL rs key.data.toList).isSome]) ∧ Below w.heap.size w w' := by
  have HC := fun w => Lib.hid (atMost_any t key rs w hs ht hv)
  have HY := fun h1 h2 => Lib.hid (line_yes hv key.data.toList h1 h2)
  have HN := fun h => Lib.hid (line_no hv key.data.toList h)
  have HR := fun h1 h2 => Lib.hid (show (restAt rs (amI rs key.data.toList)).length ≤ t.size by
    have h3 := line_yes hv key.data.toList h1 h2
    cases ha : amI rs key.data.toList with
    | zero => simp [restAt]
    | succ i =>
      have hi : i < rs.length := by have := amI_le rs key.data.toList; omega
      have h5 := offN_lt_to rs i rs.length hi (Nat.le_refl _)
      rw [toN_all, ← ht, ← Lib.size_eq, lineL_len] at h5
      rw [restAt_succ rs i hi]
      omega)
  obtain ⟨K, hK⟩ : ∃ K, keyAt rs (amI rs key.data.toList) = K := ⟨_, rfl⟩
  obtain ⟨R, hR⟩ : ∃ R, restAt rs (amI rs key.data.toList) = R := ⟨_, rfl⟩
  rw [hK, hR] at HC
  rw [hK] at HY HN HR
  rw [hR] at HY HR
  clear hK hR ht hv
  obtain ⟨V, hV⟩ : ∃ V, lookL rs key.data.toList = V := ⟨_, rfl⟩
  rw [hV] at HY HN ⊢
  clear hV
  unfold strV at *
  by_cases h0 : key.toList = []
  · obtain rfl : V = none := (HN (.inl (by rw [← ByteArray.toList_eq]; exact h0))).out
    clear HY HN HR
    have h0' : key.toList.isEmpty = true := by rw [h0]; rfl
    go_enter Tryz.func161, Tryz.ntmps161
    go_wp2_with (fail)
    refine (HC _).out.mono ?_
    rintro e w1 ⟨rfl, n1, rfl⟩
    go_wp2
    go_ret2
    exact ⟨rfl, dr_below _ w n1⟩
  · have h0' : key.toList.isEmpty = false := by simpa using h0
    by_cases h1 : K = key.toList
    · have HV := HY (by rw [← ByteArray.toList_eq]; exact h0) (by rw [← ByteArray.toList_eq]; exact h1)
      have HRR := HR (by rw [← ByteArray.toList_eq]; exact h0) (by rw [← ByteArray.toList_eq]; exact h1)
      obtain rfl := HV.out
      have h1' : (K == key.toList) = true := by simpa using h1
      have hrs : (⟨R.toArray⟩ : ByteArray).size ≤ 1099511627776 := by rw [Lib.size_eq, List.toList_toArray]; have := HRR.out; omega
      clear HY HN HR HV HRR h1
      go_enter Tryz.func161, Tryz.ntmps161
      go_wp2_with (fail)
      refine (HC _).out.mono ?_
      rintro e w1 ⟨rfl, n1, rfl⟩
      go_wp2_with (go_at_call 147; refine (clone_any _ _ hrs).mono ?_)
      rintro e w2 ⟨rfl, b2⟩
      go_wp2
      go_ret2
      exact ⟨rfl, (dr_below _ w n1).trans b2⟩
    · obtain rfl : V = none := (HN (.inr (by rw [← ByteArray.toList_eq]; exact h1))).out
      have h1' : (K == key.toList) = false := by simpa using h1
      clear HY HN HR h1
      go_enter Tryz.func161, Tryz.ntmps161
      go_wp2_with (fail)
      refine (HC _).out.mono ?_
      rintro e w1 ⟨rfl, n1, rfl⟩
      go_wp2
      go_ret2
      exact ⟨rfl, dr_below _ w n1⟩

theorem win_none (s : ByteArray) (a m : Int) (h : a < 0 ∨ (s.size : Int) ≤ a ∨ m < 1) : winL s.data.toList a m = [] := by
  unfold winL
  split
  · rfl
  · rw [List.drop_eq_nil_of_le (by rw [← Lib.size_eq]; omega), List.take_nil]

def sizeV : Value → Nat | .string l => l.size | _ => 0

set_option maxRecDepth 100000 in
set_option maxHeartbeats 2000000 in
theorem longest_any (t s : ByteArray) (a m : Int) (rs : List Ln) (w : World) (hs : t.size ≤ 1099511627776) (ha : -9223372036854775808 ≤ a ∧ a ≤ 9223372036854775807) (hm : -9223372036854775808 ≤ m ∧ m ≤ 9223372036854775807) (ht : t.data.toList = flatL rs) (hv : Valid rs) :
    Calls Tryz.prog 160 #[.string t, .string s, .int .i64 a, .int .i64 m] w fun e w' => e = .returned (.int .i64 (bestL rs (winL s.data.toList a m) : Int)) ∧ ∃ n, w' = w.drewN n := by
  by_cases h1 : a < 0
  · have HZ := Lib.hid (show bestL rs (winL s.data.toList a m) = 0 by rw [win_none s a m (.inl h1), best_nil])
    rw [HZ.out]
    clear HZ ht hv
    go_enter Tryz.func160, Tryz.ntmps160
    go_wp2
    go_ret
    exact ⟨rfl, 0, rfl⟩
  by_cases h2 : (s.size : Int) ≤ a
  · have HZ := Lib.hid (show bestL rs (winL s.data.toList a m) = 0 by rw [win_none s a m (.inr (.inl h2)), best_nil])
    rw [HZ.out]
    clear HZ ht hv
    go_enter Tryz.func160, Tryz.ntmps160
    go_wp2
    go_ret
    exact ⟨rfl, 0, rfl⟩
  by_cases h3 : m < 1
  · have HZ := Lib.hid (show bestL rs (winL s.data.toList a m) = 0 by rw [win_none s a m (.inr (.inr h3)), best_nil])
    rw [HZ.out]
    clear HZ ht hv
    go_enter Tryz.func160, Tryz.ntmps160
    go_wp2
    go_ret
    exact ⟨rfl, 0, rfl⟩
  obtain ⟨k, rfl⟩ : ∃ k : Nat, a = k := ⟨a.toNat, by omega⟩
  obtain ⟨T, hT⟩ : ∃ T, bestL rs (winL s.data.toList k m) = T := ⟨_, rfl⟩
  rw [hT]
  have HT := Lib.hid hT
  clear hT
  have hk : k < s.size := by omega
  have HTS := Lib.hid (show (flatL rs).length = t.size by rw [← ht, ← Lib.size_eq])
  have HC := fun s w => Lib.hid (atMost_any t s rs w hs ht hv)
  have HA := fun a b w h => Lib.hid (alike_any a b w h)
  unfold strV at *
  obtain ⟨p, hp⟩ : ∃ p : Nat, min m ((s.size - k : Nat) : Int) = (p : Int) := ⟨(min m ((s.size - k : Nat) : Int)).toNat, by omega⟩
  have hp1 : p ≤ s.size - k := by omega
  have hp2 : 1 ≤ p := by omega
  have HT0 := Lib.hid (show bestL rs ((s.extract k s.size).extract 0 p).data.toList = T by
    rw [← HT.out]
    congr 1
    unfold winL
    rw [if_neg (by omega), extract_data, extract_data]
    rw [show ((k : Nat) : Int).toNat = k by omega, List.drop_zero, Nat.sub_zero, List.take_take]
    have e1 : s.data.toList.drop k = (s.data.toList.drop k).take (s.size - k) := by rw [List.take_of_length_le (by rw [List.length_drop, ← Lib.size_eq]; omega)]
    conv => rhs; rw [e1, List.take_take]
    congr 1
    omega)
  have HSZ := Lib.hid (show ((s.extract k s.size).extract 0 p).size ≤ s.size by rw [ByteArray.size_extract, ByteArray.size_extract]; omega)
  clear ht HT
  go_enter Tryz.func160, Tryz.ntmps160
  go_wp2
  go_loopw [1] (fun v wr => ∃ (l : ByteArray) (n : Nat), v = .string l ∧ wr = w.drewN n ∧ l.size ≤ s.size ∧ bestL rs l.data.toList = T) (fun v _ => sizeV v)
  case atStart => exact ⟨_, 0, rfl, rfl, HSZ.out, HT0.out⟩
  case round =>
    obtain ⟨l, n, rfl, rfl, hl, hB⟩ := hrel
    clear HT0 HSZ
    obtain ⟨K, hK⟩ : ∃ K, keyAt rs (amI rs l.data.toList) = K := ⟨_, rfl⟩
    obtain ⟨R, hR⟩ : ∃ R, restAt rs (amI rs l.data.toList) = R := ⟨_, rfl⟩
    have HC1 := fun w => HC l w
    rw [hK, hR] at HC1
    obtain ⟨c, hc⟩ : ∃ c, alikeL K l.data.toList = c := ⟨_, rfl⟩
    have hKl : (⟨K.toArray⟩ : ByteArray).size = K.length := by rw [Lib.size_eq, List.toList_toArray]
    have hKt : K.length ≤ t.size := by
      rw [← hK]
      cases ha : amI rs l.data.toList with
      | zero => simp [keyAt]
      | succ i =>
        have hi : i < rs.length := by have := amI_le rs l.data.toList; omega
        have h5 := offN_lt_to rs i rs.length hi (Nat.le_refl _)
        have h6 := HTS.out
        rw [toN_all, lineL_len] at h5
        rw [keyAt_succ rs i hi]
        omega
    have HA1 := fun w => HA ⟨K.toArray⟩ l w (by omega)
    have hKd : (⟨K.toArray⟩ : ByteArray).data.toList = K := List.toList_toArray
    rw [hKd, hc] at HA1
    by_cases he : c = K.length
    · have b1 : ((c : Int) == (K.length : Int)) = true := by rw [beq_iff_eq]; omega
      have hd := best_done hv l.data.toList (by rw [hK, hc]; exact he)
      rw [hK, hc, hB] at hd
      have HD := Lib.hid hd
      have HKL := Lib.hid hKl
      clear hK hR hc hKl hKd hB he hd hKt
      go_wp2_with (fail)
      refine (HC1 _).out.mono ?_
      rintro e w1 ⟨rfl, n1, rfl⟩
      go_wp2_with (fail)
      refine (HA1 _).out.mono ?_
      rintro e w1 ⟨rfl, n2, rfl⟩
      go_wp2
      go_ret
      exact ⟨ret_int (by rw [HD.out]), _, rfl⟩
    · have b1 : ((c : Int) == (K.length : Int)) = false := by rw [beq_eq_false_iff_ne]; omega
      obtain ⟨hd1, hd2⟩ := best_less hv l.data.toList (by rw [hK, hc]; exact he)
      rw [hK, hc] at hd1 hd2
      rw [hB] at hd2
      have HD := Lib.hid hd2
      have HKL := Lib.hid hKl
      rw [← Lib.size_eq] at hd1
      clear hK hR hc hKl hKd hB he hd2 hKt
      go_wp2_with (fail)
      refine (HC1 _).out.mono ?_
      rintro e w1 ⟨rfl, n1, rfl⟩
      go_wp2_with (fail)
      refine (HA1 _).out.mono ?_
      rintro e w1 ⟨rfl, n2, rfl⟩
      go_wp2
      go_roundw
      case rel =>
        refine ⟨_, n + n1 + n2, rfl, rfl, by rw [ByteArray.size_extract]; omega, ?_⟩
        rw [extract_data, List.drop_zero, Nat.sub_zero]
        exact HD.out
      case measure => simp only [sizeV, ByteArray.size_extract]; omega

end Go.Proofs.YtbcmfcddkegcoaaGreatDoor

/-! Rows of a text, and lists of rows: plain mathematics. No program. -/
namespace Go.Proofs.YtbcmfcddkegcoaaGreatDoor

def Small (st : List Ln) : Prop := ∀ r ∈ st, r.1.length ≤ 40 ∧ r.2.length ≤ 40
end Go.Proofs.YtbcmfcddkegcoaaGreatDoor

/-! What the document's answer of layer 5 says of lists: plain, List. -/
namespace Go.Proofs.YtbcmfcddkegcoaaGreatDoor
open Go.RowKit Go.Lib

/-- a slice of rows that reads as a list -/
def IsRows (w : World) (a : Option Addr) (len cap : Nat) (l : List Ln) : Prop :=
  l.length = len ∧ len ≤ cap ∧ cap ≤ maxLen ∧ ∀ i (h : i < l.length), ∃ x, a = some x ∧ w.cell? (x.add (i * 2)) = some (strV l[i].1) ∧ w.cell? (x.add (i * 2 + 1)) = some (strV l[i].2)
theorem IsRows.below {w w' : World} {B : Nat} {a : Option Addr} {len cap : Nat} {l : List Ln} (h : IsRows w a len cap l) (hb : Below B w w') (hB : w.heap.size ≤ B) : IsRows w' a len cap l := by
  refine ⟨h.1, h.2.1, h.2.2.1, fun i hi => ?_⟩
  obtain ⟨x, hx, h1, h2⟩ := h.2.2.2 i hi
  have b1 := block_lt_of_cell h1
  have b2 := block_lt_of_cell h2
  exact ⟨x, hx, (hb.cell (by omega)).trans h1, (hb.cell (by omega)).trans h2⟩

theorem u8_beq (c : UInt8) (n : Nat) (hn : n < 256) : (((c.toNat : Nat) : Int) == (n : Int)) = (c == UInt8.ofNat n) := by
  rw [Bool.eq_iff_iff, beq_iff_eq, beq_iff_eq]
  refine ⟨u8_eq c n hn, fun e => ?_⟩
  subst e
  rw [UInt8.toNat_ofNat']; omega

end Go.Proofs.YtbcmfcddkegcoaaGreatDoor

/-! What the document's answer of layer 5 reads a text as: Rows. -/
namespace Go.Proofs.YtbcmfcddkegcoaaGreatDoor
open Go.RowKit Go.Lib

def cellsR (l : List Ln) : List Value := l.flatMap fun r => [strV r.1, strV r.2]
theorem cellsR_add (l : List Ln) (k r : Txt) : cellsR l ++ [strV k, strV r] = cellsR (l ++ [(k, r)]) := by simp [cellsR]
theorem cellsR_at : ∀ (l : List Ln) (i : Nat) (h : i < l.length), (cellsR l)[i * 2]? = some (strV l[i].1) ∧ (cellsR l)[i * 2 + 1]? = some (strV l[i].2)
  | x :: l, 0, _ => ⟨rfl, rfl⟩
  | x :: l, i + 1, h => by
    obtain ⟨a, b⟩ := cellsR_at l i (by simpa using h)
    rw [show cellsR (x :: l) = strV x.1 :: strV x.2 :: cellsR l from rfl, show (i + 1) * 2 = i * 2 + 1 + 1 by omega]
    simp only [List.getElem?_cons_succ, List.getElem_cons_succ]
    exact ⟨a, b⟩
theorem isRows_own {w : World} {base e : Nat} {v : Value} (l : List Ln) (h : w.ownsRow base e 2 v l.length (cellsR l)) : ∃ a cap, v = .slice a l.length cap ∧ IsRows w a l.length cap l := by
  have hc := fun g hg => h.cells (g := g) hg
  rcases h.2 with ⟨rfl, h0⟩ | ⟨g, cap, cur, rfl, hb, hg, hn, hm, hs, htake⟩
  · refine ⟨none, 0, by rw [h0], rfl, by omega, by simp [maxLen], fun i hi => by omega⟩
  · refine ⟨_, cap, rfl, rfl, hn, hm, fun i hi => ⟨_, rfl, ?_, ?_⟩⟩
    · exact hc g rfl _ _ (cellsR_at l i hi).1
    · exact hc g rfl _ _ (cellsR_at l i hi).2

theorem new_two (wr : World) (a b : Value) (e : TypeId) : ∀ (j : Nat) (u : Value), [a, b][j]? = some u → (wr.alloc (.cells #[a, b] e)).cell? ((⟨wr.heap.size, 0, none⟩ : Addr).add j) = some u := by
  intro j u hj
  have e1 : (⟨wr.heap.size, 0, none⟩ : Addr).add j = ⟨wr.heap.size, j, none⟩ := by simp [Addr.add]; omega
  rw [e1, cell_of_row _ _ _ _ _ _ (heap_alloc_new wr _)]
  simpa using hj
end Go.Proofs.YtbcmfcddkegcoaaGreatDoor
