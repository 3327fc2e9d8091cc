/-
  No name of a piece is long: plain mathematics.
-/
import Derived.Test.YtdcbjgmjmdgmmaaGreatDoorDrvMath
namespace Go.Proofs.YtdcbjgmjmdgmmaaGreatDoor
open Go.RowKit Go.Lib

theorem tell_len (x : Txt) : (tellN x).length ≤ 3 * x.length := by
  unfold tellN
  have := (cleanL_len (lowL x)).2
  rw [lowL_len] at this
  exact this
theorem tag_name (l : Txt) (t : TokP) (n : Nat) (h : tagR l = some (t, n)) : t.name.length ≤ 3 * l.length := by
  obtain ⟨h1, h2, -, al, self, ht, -⟩ := tag_ends l t n h
  have h3 := tell_len (tgN l)
  have e : t.name = tellN (tgN l) := by rw [ht]; unfold tokT; split <;> rfl
  rw [e]; omega
theorem nx_name (l : Txt) : (nx l).1.name.length ≤ 3 * l.length := by
  rcases nx_cases l with ⟨h, -, e⟩ | ⟨h, t, n, hr, e⟩ | ⟨-, h, e⟩ | ⟨-, -, h, e⟩ | ⟨-, -, -, h, e⟩ | ⟨-, -, -, -, -, -, h, e⟩ | ⟨-, -, -, -, -, h, e⟩
  all_goals rw [e]; simp only
  · exact Nat.zero_le _
  · exact tag_name l t n hr
  all_goals exact Nat.zero_le _
theorem emit_name (x : Txt) (t : TokP) (h : t ∈ emitT x) : t.name = [] := by
  unfold emitT at h
  split at h
  · cases h
  · rw [List.mem_singleton.1 h]; rfl
theorem rest_name (st : Int) (nm l : Txt) : ∀ t ∈ (restK st nm l).1, t.name.length ≤ 3 * l.length := by
  intro t h
  have he : ∀ x, t ∈ emitT x → t.name.length ≤ 3 * l.length := fun x h => by rw [emit_name x t h]; exact Nat.zero_le _
  unfold restK at h
  split at h
  · split at h
    · exact he _ h
    · split at h
      · cases hr : tagR (l.drop (endN15 st nm l)) with
        | none => rw [hr] at h; exact he _ h
        | some r =>
          obtain ⟨u, n⟩ := r
          rw [hr] at h
          rcases List.mem_append.1 h with h1 | h1
          · exact he _ h1
          · rw [List.mem_singleton.1 h1]
            have := tag_name _ u n hr
            rw [List.length_drop] at this
            omega
      · exact he _ h
  · cases h
theorem toks_name : ∀ (f : Nat) (l : Txt), ∀ t ∈ toksR f l, t.name.length ≤ 3 * l.length
  | 0, _, t, h => by cases h
  | f + 1, l, t, h => by
    unfold toksR at h
    split at h
    · cases h
    · rcases List.mem_append.1 h with h1 | h1
      · split at h1
        · rw [List.mem_singleton.1 h1]; exact nx_name l
        · cases h1
      · have := toks_name f _ t h1
        rw [List.length_drop] at this
        omega
theorem drvR_name : ∀ (f : Nat) (l : Txt), ∀ t ∈ drvR f l, t.name.length ≤ 3 * l.length
  | 0, _, t, h => by cases h
  | f + 1, l, t, h => by
    unfold drvR at h
    split at h
    · cases h
    · rcases List.mem_append.1 h with h1 | h1
      · unfold drvS at h1
        split at h1
        · split at h1
          · rcases List.mem_cons.1 h1 with h2 | h2
            · rw [h2]; exact nx_name l
            · have := rest_name _ _ _ t h2
              rw [List.length_drop] at this
              omega
          · rw [List.mem_singleton.1 h1]; exact nx_name l
        · cases h1
      · have := drvR_name f _ t h1
        rw [List.length_drop] at this
        omega
theorem join_name (L : List TokP) (n : Nat) (h : ∀ t ∈ L, t.name.length ≤ n) : ∀ t ∈ joinL L, t.name.length ≤ n := fun t ht => by
  rcases join_mem L [] t ht with ⟨-, h1⟩ | ⟨x, -, e⟩
  · exact h t h1
  · rw [e]; exact Nat.zero_le _
theorem drv_name (s : Txt) : ∀ t ∈ drvL s, t.name.length ≤ 3 * s.length := join_name _ _ (drvR_name _ s)
theorem tokL_name (st : Int) (nm s : Txt) : ∀ t ∈ tokL st nm s, t.name.length ≤ 3 * s.length := by
  unfold tokL
  split
  · refine join_name _ _ fun t ht => ?_
    rcases List.mem_append.1 ht with h | h
    · exact rest_name _ _ _ t h
    · have := toks_name _ _ t h
      rw [List.length_drop] at this
      omega
  · intro t h; cases h
/-- where there is no piece the token is no start tag -/
theorem nx_zero (l : Txt) (h : (nx l).2.2 = false) : (nx l).1 = zeroT := by
  rcases nx_cases l with ⟨_, -, e⟩ | ⟨_, t, n, hr, e⟩ | ⟨-, _, e⟩ | ⟨-, -, _, e⟩ | ⟨-, -, -, _, e⟩ | ⟨-, -, -, -, -, -, _, e⟩ | ⟨-, -, -, -, -, _, e⟩
  all_goals rw [e] at h ⊢
  all_goals first | rfl | (simp at h)
end Go.Proofs.YtdcbjgmjmdgmmaaGreatDoor
