/-
  What is written is read as just that, with all references read: plain mathematics.
-/
import Derived.Test.YtbcmfcddkegcoaaGreatDoorP6
import Derived.Test.YtbcmfcddkegcoaaGreatDoorEscMath
import Derived.KernelRfl
namespace Go.Proofs.YtbcmfcddkegcoaaGreatDoor
open Go.RowKit Go.Lib

theorem looks21 : (∀ q ∈ [[108, 116, 59], [103, 116, 59], [113, 117, 111, 116, 59]], (nmLook q).isSome = true ∧ hasSuffix q [59] = true) ∧ textL (aOf (nmLook [108, 116, 59])) (bOf (nmLook [108, 116, 59])) = [60] ∧ textL (aOf (nmLook [103, 116, 59])) (bOf (nmLook [103, 116, 59])) = [62] ∧ textL (aOf (nmLook [113, 117, 111, 116, 59])) (bOf (nmLook [113, 117, 111, 116, 59])) = [34] := by
  refine ⟨fun q hq => ?_, by kernel_rfl, by kernel_rfl, by kernel_rfl⟩
  simp only [List.mem_cons, List.not_mem_nil, or_false] at hq
  rcases hq with rfl | rfl | rfl <;> exact ⟨by kernel_rfl, by kernel_rfl⟩
theorem word_read (q z : Txt) (attr : Bool) (hq : q ∈ [[108, 116, 59], [103, 116, 59], [113, 117, 111, 116, 59]]) : ddL attr (38 :: (q ++ z)) = textL (aOf (nmLook q)) (bOf (nmLook q)) ++ ddL attr z := by
  obtain ⟨h1, h2⟩ := looks21.1 q hq
  obtain ⟨e1, e2⟩ := name_semi q z attr h1 h2
  rw [dd_amp, e1, e2, List.drop_left]
theorem numb_read (D z : Txt) (attr : Bool) (hD : ∀ c ∈ D, isDig 10 c = true) (hne : D ≠ []) : ddL attr (38 :: 35 :: (D ++ 59 :: z)) = (fixS (valD 10 D)).data.toList ++ ddL attr z := by
  obtain ⟨e1, e2⟩ := num_ends D (59 :: z) attr hD hne (.inr ⟨59, z, rfl, by decide⟩)
  rw [if_pos (show (59 :: z : Txt).getD 0 0 = 59 from rfl)] at e1
  rw [dd_amp, e1, e2]
  congr 2
  show (D ++ 59 :: z).drop (D.length + 1) = z
  rw [← List.drop_drop, List.drop_left]; rfl
theorem fix21 : (fixS (valD 10 [51, 57])).data.toList = [39] ∧ (fixS (valD 10 [49, 51])).data.toList = [13] ∧ (fixS (valD 10 [54, 53, 50, 55, 57])).data.toList = markL := by refine ⟨?_, ?_, ?_⟩ <;> kernel_rfl
set_option maxRecDepth 100000 in
theorem dd_enc (attr : Bool) : ∀ (n : Nat) (l : Txt), l.length ≤ n → ddL attr (encL l) = cleanL l
  | 0, l, h => by
    have : l = [] := List.eq_nil_of_length_eq_zero (by omega)
    subst this; rfl
  | n + 1, l, h => by
    obtain ⟨-, w1, w2, w3⟩ := looks21
    obtain ⟨f1, f2, f3⟩ := fix21
    rcases encL_ways l with rfl | ⟨t, rfl, e⟩ | ⟨c, t, rfl, -, e⟩
    · rfl
    · have ih := dd_enc attr n t (by rw [List.length_append] at h; simp [markL] at h; omega)
      rw [e, show encM ++ encL t = 38 :: 35 :: ([54, 53, 50, 55, 57] ++ 59 :: encL t) from rfl, numb_read _ _ attr (by decide) (by decide), f3, ih, cleanL_app]
      rfl
    · have ih := dd_enc attr n t (by rw [List.length_cons] at h; omega)
      rw [e]
      by_cases c38 : c = 38
      · subst c38
        have h1 := amp_read (encL t) attr
        rw [show encB 38 ++ encL t = 38 :: ([97, 109, 112, 59] ++ encL t) from rfl]
        rw [dd_amp, h1.1, h1.2, show ([97, 109, 112, 59] ++ encL t : Txt).drop 4 = encL t from rfl, ih]; rfl
      by_cases c60 : c = 60
      · subst c60
        rw [show encB 60 ++ encL t = 38 :: ([108, 116, 59] ++ encL t) from rfl]
        rw [word_read _ _ attr (by decide), w1, ih]; rfl
      by_cases c62 : c = 62
      · subst c62
        rw [show encB 62 ++ encL t = 38 :: ([103, 116, 59] ++ encL t) from rfl]
        rw [word_read _ _ attr (by decide), w2, ih]; rfl
      by_cases c34 : c = 34
      · subst c34
        rw [show encB 34 ++ encL t = 38 :: ([113, 117, 111, 116, 59] ++ encL t) from rfl]
        rw [word_read _ _ attr (by decide), w3, ih]; rfl
      by_cases c39 : c = 39
      · subst c39
        rw [show encB 39 ++ encL t = 38 :: 35 :: ([51, 57] ++ 59 :: encL t) from rfl]
        rw [numb_read _ _ attr (by decide) (by decide), f1, ih]; rfl
      by_cases c13 : c = 13
      · subst c13
        rw [show encB 13 ++ encL t = 38 :: 35 :: ([49, 51] ++ 59 :: encL t) from rfl]
        rw [numb_read _ _ attr (by decide) (by decide), f2, ih]; rfl
      by_cases c0 : c = 0
      · subst c0
        rw [show encB 0 ++ encL t = [239, 191, 189] ++ encL t from rfl]
        rw [dd_ahead attr _ _ (by decide), ih]; rfl
      · rw [encB_same c (by unfold badB; simp [c60, c62, c34, c39, c0, c13]) c38]
        show ddL attr (c :: encL t) = _
        rw [dd_plain attr c _ c38, ih, cleanL, if_neg c0]
theorem dd_encD (attr : Bool) (d : Int) (hd : 0 ≤ d ∧ d ≤ 2) (l : Txt) : ddL attr (encD d l) = (if d = 2 ∧ l.head? = some 10 then [10] else []) ++ cleanL l := by
  rw [encD_in d l hd]
  split
  · rw [dd_ahead attr _ _ (by decide), dd_enc attr _ l (Nat.le_refl _)]
  · rw [List.nil_append, List.nil_append, dd_enc attr _ l (Nat.le_refl _)]
end Go.Proofs.YtbcmfcddkegcoaaGreatDoor
