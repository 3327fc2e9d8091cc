/-
  What the document's Drive of layer 16 answers.
-/
import Derived.Test.YtpmdcppnlggckaaGreatDoorDA
import Derived.Test.YtpmdcppnlggckaaGreatDoorTkPut
namespace Go.Proofs.YtpmdcppnlggckaaGreatDoor
open Go.RowKit Go.Lib

/-! a step, as it is asked for -/
theorem drv_no (l : Txt) (hl : l ≠ []) (h : (nx l).2.2 = false) : drvP l = drvP (l.drop (nx l).2.1) := by
  rw [drv_step l hl]
  unfold drvS
  rw [h, if_neg Bool.false_ne_true]; rfl
theorem drv_plain (l : Txt) (hl : l ≠ []) (h : (nx l).2.2 = true) (hs : ¬ SpecT (nx l).1) : drvP l = (nx l).1 :: drvP (l.drop (nx l).2.1) := by
  rw [drv_step l hl]
  unfold drvS
  rw [if_pos h, if_neg hs]; rfl
theorem drv_spec (l : Txt) (hl : l ≠ []) (h : (nx l).2.2 = true) (hs : SpecT (nx l).1) :
    drvP l = (nx l).1 :: ((restK (drvN (nx l).1.name) (nx l).1.name (l.drop (nx l).2.1)).1 ++ drvP ((l.drop (nx l).2.1).drop (restK (drvN (nx l).1.name) (nx l).1.name (l.drop (nx l).2.1)).2)) := by
  rw [drv_step l hl]
  unfold drvS
  rw [if_pos h, if_pos hs, List.drop_drop]; rfl
theorem spec_long (l : Txt) (h : (nx l).2.2 = true) (hs : SpecT (nx l).1) : 3 ≤ (nx l).2.1 ∧ (nx l).1.name.length ≤ 9 := by
  have hn : (nx l).1.name.length ≤ 9 := by
    obtain ⟨p, hp, e, -⟩ := st_some _ hs.2
    rw [← e]
    exact (show ∀ p ∈ stTab, p.1.length ≤ 9 by decide) p hp
  refine ⟨?_, hn⟩
  have h1 := hs.1
  rcases nx_cases l with ⟨hb, -, e⟩ | ⟨hb, t, n, hr, e⟩ | ⟨-, hb, e⟩ | ⟨-, -, hb, e⟩ | ⟨-, -, -, hb, e⟩ | ⟨-, -, -, -, -, -, hb, e⟩ | ⟨-, -, -, -, -, hb, e⟩
  all_goals rw [e] at h h1 ⊢
  all_goals simp only at h h1 ⊢
  · cases h
  · obtain ⟨e1, -⟩ := tag_ends l t n hr
    have := (tg_len l hb).2
    omega
  · exact absurd h1 (show ¬ (3 : Int) = 1 by decide)
  · exact absurd h1 (show ¬ (4 : Int) = 1 by decide)
  · cases h
  · cases h
  · exact absurd h1 (show ¬ (0 : Int) = 1 by decide)
theorem spec_rest (nm l : Txt) (hs : drvN nm ≠ 0) : ∀ t ∈ (restK (drvN nm) nm l).1, t.attrs = [] := by
  obtain ⟨x, ⟨e, -⟩ | e⟩ := rest_shape nm l hs
  all_goals rw [e]; intro t ht
  · unfold emitT at ht
    split at ht
    · cases ht
    · rw [List.mem_singleton.1 ht]; rfl
  · rcases List.mem_append.1 ht with h | h
    · unfold emitT at h
      split at h
      · cases h
      · rw [List.mem_singleton.1 h]; rfl
    · rw [List.mem_singleton.1 h]
theorem restV_at (st : Int) (nm s : Txt) (k : Nat) (hk : k ≤ s.length) : restV st nm s (k : Int) = ((restK st nm (s.drop k)).1, k + (restK st nm (s.drop k)).2) := by
  unfold restV; rw [atN_in s k hk]

end Go.Proofs.YtpmdcppnlggckaaGreatDoor
