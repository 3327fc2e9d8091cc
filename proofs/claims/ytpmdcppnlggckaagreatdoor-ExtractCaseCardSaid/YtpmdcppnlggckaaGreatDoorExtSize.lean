/-
  How long what bytes say may come to be: plain mathematics.
-/
import Derived.Test.YtpmdcppnlggckaaGreatDoorCrMath
namespace Go.Proofs.YtpmdcppnlggckaaGreatDoor
open Go.RowKit Go.Lib

theorem emit_wt (x : Txt) (t : TokP) (h : t ∈ emitT x) : t.text.length ≤ x.length := by rw [emit_text x t h]; exact Nat.le_refl _
theorem drvR_text : ∀ (f : Nat) (l : Txt) (t : TokP), t ∈ drvR f l → t.text.length ≤ 9 * l.length + 3
  | 0, _, t, h => by cases h
  | f + 1, l, t, h => by
    unfold drvR at h
    split at h
    · cases h
    · rcases List.mem_append.1 h with h1 | h1
      · have hn := nx_text l
        unfold drvS at h1
        split at h1
        · split at h1
          · rcases List.mem_cons.1 h1 with h2 | h2
            · rw [h2]; omega
            · have := (rest_in (drvN (nx l).1.name) (nx l).1.name (l.drop (nx l).2.1)).2 t h2
              rw [List.length_drop] at this
              omega
          · rw [List.mem_singleton.1 h1]; omega
        · cases h1
      · have := drvR_text f _ t h1
        rw [List.length_drop] at this
        omega
theorem join_text20 : ∀ (L : List TokP) (x : Txt) (n : Nat), (∀ t ∈ L, t.text.length ≤ n) → ∀ t ∈ joinA x L, t.text.length ≤ x.length + wtL L + n
  | [], x, n, _, t, h => by
    rw [joinA] at h
    have := emit_wt x t h; omega
  | u :: L, x, n, hn, t, h => by
    rw [joinA] at h
    have hu := hn u (.head _)
    have hL := fun v hv => hn v (List.mem_cons_of_mem u hv)
    split at h
    · rename_i hk
      have := join_text20 L _ n hL t h
      have hw : wtT u = u.text.length := by unfold wtT; rw [if_pos hk]
      rw [List.length_append] at this
      rw [wtL]; omega
    · rw [wtL]
      rcases List.mem_append.1 h with h1 | h1
      · have := emit_wt x t h1; omega
      · rcases List.mem_cons.1 h1 with h2 | h2
        · rw [h2]; omega
        · have := join_text20 L [] n hL t h2
          rw [List.length_nil] at this
          omega
theorem drv_text20 (s : Txt) (n : Nat) (h : s.length ≤ n) : ∀ t ∈ drvL s, t.text.length ≤ 12 * n + 3 := fun t ht => by
  have h1 := join_text20 (drvP s) [] _ (drvR_text s.length s) t ht
  have h2 : wtL (drvP s) ≤ _ := drvR_wt _ _
  have h3 := (cr_more s).2
  rw [List.length_nil] at h1
  omega
theorem drv_few20 (s : Txt) : (drvL s).length ≤ 3 * s.length := Nat.le_trans (join_len _) (drv_len _ _)
theorem ext_sizes (l : Txt) (h : l.length ≤ 300) : (dec l).length ≤ 900 ∧ (normL (dec l)).length ≤ 900 ∧ (drvL (normL (dec l))).length ≤ 2700 ∧ (∀ t ∈ drvL (normL (dec l)), t.text.length ≤ 10803) ∧ (extL l).length ≤ 900 := by
  have h1 := (cr_more (dec l)).1
  have h2 := cr_dec l
  have h3 := normL_len (dec l)
  have h4 := drv_few20 (normL (dec l))
  have h5 := ext_len l
  exact ⟨by omega, by omega, by omega, drv_text20 _ 900 (by omega), by omega⟩

/-- of what bytes Extract is spoken -/
structure ExtOk (l : Txt) : Prop where
  size : l.length ≤ 100000
  few : (drvL (normL (dec l))).length ≤ 4096
  text : ∀ t ∈ drvL (normL (dec l)), t.text.length ≤ 65536
theorem ext_ok (l : Txt) (h : l.length ≤ 300) : ExtOk l := by
  obtain ⟨-, -, h3, h4, -⟩ := ext_sizes l h
  exact ⟨by omega, by omega, fun t ht => by have := h4 t ht; omega⟩
theorem dec_size (l : Txt) : (dec l).length ≤ 3 * l.length ∧ (normL (dec l)).length ≤ 3 * l.length := by
  have h1 := (cr_more (dec l)).1
  have h2 := cr_dec l
  have h3 := normL_len (dec l)
  omega
end Go.Proofs.YtpmdcppnlggckaaGreatDoor
