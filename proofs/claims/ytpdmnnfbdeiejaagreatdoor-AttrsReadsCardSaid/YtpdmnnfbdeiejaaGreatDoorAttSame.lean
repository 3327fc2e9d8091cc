/-
  What the document's Same of layer 8 answers for two lists of attributes.
-/
import Derived.Test.YtpdmnnfbdeiejaaGreatDoorAttMath
import Derived.Test.YtpdmnnfbdeiejaaGreatDoorP3
import Derived.Deep.QuietTactic
namespace Go.Proofs.YtpdmnnfbdeiejaaGreatDoor
open Go.RowKit Go.Lib

theorem take_ne (a b : List Ln) (i : Nat) (ha : i < a.length) (hb : i < b.length) (h : a[i] ≠ b[i]) : a ≠ b := by
  rintro rfl; exact h rfl
theorem take_next (a b : List Ln) (i : Nat) (ha : i < a.length) (hb : i < b.length) (h : a[i] = b[i]) (ht : a.take i = b.take i) : a.take (i + 1) = b.take (i + 1) := by
  rw [List.take_succ_eq_append_getElem ha, List.take_succ_eq_append_getElem hb, h, ht]

set_option maxRecDepth 100000 in
set_option maxHeartbeats 4000000 in
theorem refSame_any (a1 a2 : Option Addr) (n1 n2 c1 c2 : Nat) (l1 l2 : List Ln) (w : World) (h1 : IsRows w a1 n1 c1 l1) (h2 : IsRows w a2 n2 c2 l2) :
    Calls Tryz.prog 7 #[.slice a1 n1 c1, .slice a2 n2 c2] w fun e w' => e = .returned (.bool (decide (l1 = l2))) ∧ ∃ d, w' = w.drewN d := by
  have e1 := h1.1
  have e2 := h2.1
  have m1 := h1.2.1
  have m2 := h1.2.2.1
  unfold maxLen at m2
  have H1 := Lib.hid h1
  have H2 := Lib.hid h2
  clear h1 h2
  by_cases hne : n1 = n2
  · subst hne
    obtain ⟨B, hB⟩ : ∃ B, decide (l1 = l2) = B := ⟨_, rfl⟩
    rw [hB]
    have HB := Lib.hid hB
    clear hB
    have b0 : ((n1 : Int) != (n1 : Int)) = false := by simp
    go_enter Tryz.func7, Tryz.ntmps7
    go_wp2
    clear b0
    go_loopw [5] (fun v wr => ∃ i d : Nat, v = .int .i64 (i : Int) ∧ wr = w.drewN d ∧ i ≤ n1 ∧ Hid (l1.take i = l2.take i)) (fun v _ => n1 - (intOf v).toNat)
    case atStart => exact ⟨0, 0, rfl, rfl, Nat.zero_le _, Lib.hid rfl⟩
    case round =>
      obtain ⟨i, d, rfl, rfl, hi, HT⟩ := hrel
      by_cases hlt : i < n1
      · obtain ⟨x, rfl, x1, x2⟩ := H1.out.2.2.2 i (by omega)
        obtain ⟨y, rfl, y1, y2⟩ := H2.out.2.2.2 i (by omega)
        rw [add_succ] at x2 y2
        have g1 : i < l1.length := by omega
        have g2 : i < l2.length := by omega
        have HN := fun (h : l1[i]'g1 ≠ l2[i]'g2) => Lib.hid (take_ne l1 l2 i g1 g2 h)
        have HX := fun (h : l1[i]'g1 = l2[i]'g2) => Lib.hid (take_next l1 l2 i g1 g2 h HT.out)
        obtain ⟨p, hp⟩ : ∃ p, l1[i]'g1 = p := ⟨_, rfl⟩
        obtain ⟨r, hr⟩ : ∃ r, l2[i]'g2 = r := ⟨_, rfl⟩
        rw [hp] at x1 x2 HN HX
        rw [hr] at y1 y2 HN HX
        obtain ⟨p1, p2⟩ := p
        obtain ⟨r1, r2⟩ := r
        simp only at x1 x2 y1 y2
        clear hp hr
        unfold strV at x1 x2 y1 y2
        by_cases k1 : p1 = r1
        · by_cases k2 : p2 = r2
          · subst k1; subst k2
            have HK := HX rfl
            clear HN HX
            go_wp2_with (fail)
            go_region
            go_wp2
            go_roundw
            case rel => exact ⟨i + 1, _, by simp, rfl, by omega, HK⟩
            case measure => simp [intOf]; omega
          · have b2 : (p2 == r2) = false := beq_eq_false_iff_ne.2 k2
            subst k1
            have HK := Lib.hid ((HN (fun e => k2 (Prod.mk.inj e).2)).out)
            have HF := Lib.hid (show B = false by rw [← HB.out]; exact decide_eq_false HK.out)
            clear HN HX k2 HK
            go_wp2_with (fail)
            go_region
            go_wp2
            go_ret
            rw [HF.out]
            exact ⟨rfl, _, rfl⟩
        · have b1 : (p1 == r1) = false := beq_eq_false_iff_ne.2 k1
          have HK := Lib.hid ((HN (fun e => k1 (Prod.mk.inj e).1)).out)
          have HF := Lib.hid (show B = false by rw [← HB.out]; exact decide_eq_false HK.out)
          clear HN HX k1 HK
          go_wp2_with (fail)
          go_region
          go_wp2
          go_ret
          rw [HF.out]
          exact ⟨rfl, _, rfl⟩
      · have HF := Lib.hid (show B = true by
          rw [← HB.out]
          refine decide_eq_true ?_
          have := HT.out
          rwa [List.take_of_length_le (by omega), List.take_of_length_le (by omega)] at this)
        go_wp2
        go_ret
        rw [HF.out]
        exact ⟨rfl, _, rfl⟩
  · have b0 : ((n1 : Int) != (n2 : Int)) = true := by simp; omega
    have hd : decide (l1 = l2) = false := decide_eq_false (by rintro rfl; omega)
    rw [hd]
    clear hd hne
    go_enter Tryz.func7, Tryz.ntmps7
    go_wp2
    go_ret
    exact ⟨rfl, 0, rfl⟩
end Go.Proofs.YtpdmnnfbdeiejaaGreatDoor
