/-
  What the document's answers of layer 10 are.
-/
import Derived.Test.YtcamkphanakkdaaGreatDoorComTold
import Derived.Test.YtcamkphanakkdaaGreatDoorP1
import Derived.Test.YtcamkphanakkdaaGreatDoorP4
namespace Go.Proofs.YtcamkphanakkdaaGreatDoor
open Go.RowKit Go.Lib

theorem take_pre (s t : ByteArray) : ((s.extract 0 t.size).toList == t.toList) = t.data.toList.isPrefixOf s.data.toList := by
  rw [str_beq, Lib.extract_data, List.drop_zero, Nat.sub_zero, Bool.eq_iff_iff, decide_eq_true_iff, List.isPrefixOf_iff_prefix, List.prefix_iff_eq_take, ← Lib.size_eq]
  exact ⟨fun e => e.symm, fun e => e.symm⟩
theorem drop_suf (s t : ByteArray) : ((s.extract (s.size - t.size) s.size).toList == t.toList) = t.data.toList.isSuffixOf s.data.toList := by
  rw [str_beq, Lib.extract_data, Bool.eq_iff_iff, decide_eq_true_iff, List.isSuffixOf_iff_suffix, List.suffix_iff_eq_drop, ← Lib.size_eq, ← Lib.size_eq, List.take_of_length_le (by rw [List.length_drop, ← Lib.size_eq]; exact Nat.le_refl _)]
  exact ⟨fun e => e.symm, fun e => e.symm⟩
theorem pre_less (s t : ByteArray) (h : s.size < t.size) : t.data.toList.isPrefixOf s.data.toList = false := by
  rw [Bool.eq_false_iff]; intro e
  have := (List.isPrefixOf_iff_prefix.1 e).length_le
  rw [← Lib.size_eq, ← Lib.size_eq] at this; omega
theorem suf_less (s t : ByteArray) (h : s.size < t.size) : t.data.toList.isSuffixOf s.data.toList = false := by
  rw [Bool.eq_false_iff]; intro e
  have := (List.isSuffixOf_iff_suffix.1 e).length_le
  rw [← Lib.size_eq, ← Lib.size_eq] at this; omega

theorem begC_two (c d : UInt8) (t : Txt) : begC (c :: d :: t) = (c == 60 && (if d = 33 then !(dtL.isPrefixOf (lowL t)) else if d = 63 then true else if d = 47 then t.head?.any (fun e => !(e == 62) && !(letterI (e.toNat : Int))) else false)) := by
  by_cases hc : c = 60
  · subst hc
    by_cases h1 : d = 33
    · subst h1; rfl
    · by_cases h2 : d = 63
      · subst h2; rfl
      · by_cases h3 : d = 47
        · subst h3
          cases t with
          | nil => rfl
          | cons e t => rfl
        · rw [if_neg h1, if_neg h2, if_neg h3, Bool.and_false]
          unfold begC
          split <;> simp_all
  · rw [show (c == 60) = false from beq_eq_false_iff_ne.2 hc, Bool.false_and]
    unfold begC
    split <;> simp_all
theorem begC_short (t : Txt) (h : t.length < 2) : begC t = false := by
  match t, h with
  | [], _ => rfl
  | [c], _ =>
    unfold begC
    split <;> simp_all
theorem doc_at (s : ByteArray) (k : Nat) (h : k ≤ s.size) : begS s (k : Int) ⟨#[100, 111, 99, 116, 121, 112, 101]⟩ = dtL.isPrefixOf (lowL (s.data.toList.drop k)) := by
  unfold begS
  rw [decide_eq_true (show 0 ≤ (k : Int) ∧ (k : Int) ≤ (s.size : Int) by omega), Bool.true_and, show ((k : Nat) : Int).toNat = k by omega]
  rfl

set_option maxRecDepth 100000 in
set_option maxHeartbeats 2000000 in
theorem refBegins10_any (s : ByteArray) (a : Int) (w : World) (hs : s.size ≤ 1048576) (ha : -9223372036854775808 ≤ a ∧ a ≤ 9223372036854775807) :
    Calls Tryz.prog 16 #[.string s, .int .i64 a] w fun e w' => e = .returned (.bool (cbegV s.data.toList a)) ∧ Below w.heap.size w w' := by
  by_cases hin : 0 ≤ a ∧ a < (s.size : Int) - 1
  · obtain ⟨k, rfl⟩ : ∃ k : Nat, a = k := ⟨a.toNat, by omega⟩
    have hk : k < s.size := by omega
    have hk1 : k + 1 < s.size := by omega
    have hkk : k ≤ 1048576 := by omega
    rw [cbeg_in, drop_at s k hk, drop_at s (k + 1) hk1, begC_two]
    have n0 : decide ((k : Int) < 0) = false := decide_eq_false (by omega)
    have n1 : decide ((s.size : Int) - 1 ≤ (k : Int)) = false := decide_eq_false (by omega)
    by_cases c60 : s[k] = 60
    · have b60 : (((s[k].toNat : Nat) : Int) != 60) = false := by rw [c60]; rfl
      rw [show (s[k] == 60) = true from beq_iff_eq.2 c60, Bool.true_and]
      by_cases c33 : s[k + 1] = 33
      · have b33 : (((s[k + 1].toNat : Nat) : Int) == 33) = true := by rw [c33]; rfl
        rw [if_pos c33]
        have HB := fun w => Lib.hid (refBegins s ((k : Int) + 2) ⟨#[100, 111, 99, 116, 121, 112, 101]⟩ w (by omega) (by decide) (by omega) (by omega))
        rw [show (k : Int) + 2 = ((k + 2 : Nat) : Int) by omega, doc_at s (k + 2) (by omega)] at HB
        rw [show k + 1 + 1 = k + 2 from rfl]
        obtain ⟨B, hB⟩ : ∃ B, dtL.isPrefixOf (lowL (s.data.toList.drop (k + 2))) = B := ⟨_, rfl⟩
        rw [hB] at HB ⊢
        rw [show ((k + 2 : Nat) : Int) = (k : Int) + 2 by omega] at HB
        clear hB c60 c33 hin ha
        go_enter Tryz.func16, Tryz.ntmps16
        go_wp2_with (fail)
        refine (HB _).out.mono ?_
        rintro e w1 ⟨rfl, b1⟩
        go_wp2
        go_ret
        exact ⟨rfl, b1⟩
      · have b33 : (((s[k + 1].toNat : Nat) : Int) == 33) = false := by
          rw [beq_eq_false_iff_ne]; exact fun h => c33 (u8_eq _ 33 (by decide) h)
        rw [if_neg c33]
        by_cases c63 : s[k + 1] = 63
        · have b63 : (((s[k + 1].toNat : Nat) : Int) == 63) = true := by rw [c63]; rfl
          rw [if_pos c63]
          clear c60 c33 c63 hin ha
          go_enter Tryz.func16, Tryz.ntmps16
          go_wp2
          go_ret
          exact ⟨rfl, Below.refl _ _⟩
        · have b63 : (((s[k + 1].toNat : Nat) : Int) == 63) = false := by
            rw [beq_eq_false_iff_ne]; exact fun h => c63 (u8_eq _ 63 (by decide) h)
          rw [if_neg c63]
          by_cases c47 : s[k + 1] = 47
          · have b47 : (((s[k + 1].toNat : Nat) : Int) == 47) = true := by rw [c47]; rfl
            rw [if_pos c47]
            by_cases hk2 : k + 2 < s.size
            · have HL := fun w => Lib.hid (refLetter ((s[k + 2].toNat : Nat) : Int) w (by omega) (by have := s[k + 2].toNat_lt; omega))
              rw [show k + 1 + 1 = k + 2 from rfl, drop_at s (k + 2) hk2]
              simp only [List.head?_cons, Option.any_some]
              by_cases c62 : s[k + 2] = 62
              · have b62 : (((s[k + 2].toNat : Nat) : Int) != 62) = false := by rw [c62]; rfl
                rw [show (s[k + 2] == 62) = true from beq_iff_eq.2 c62]
                clear c60 c33 c63 c47 c62 hin ha HL
                go_enter Tryz.func16, Tryz.ntmps16
                go_wp2
                go_ret
                exact ⟨rfl, Below.refl _ _⟩
              · have b62 : (((s[k + 2].toNat : Nat) : Int) != 62) = true := by
                  rw [bne_iff_ne]; exact fun h => c62 (u8_eq _ 62 (by decide) h)
                rw [show (s[k + 2] == 62) = false from beq_eq_false_iff_ne.2 c62]
                obtain ⟨L, hL⟩ : ∃ L, letterI ((s[k + 2].toNat : Nat) : Int) = L := ⟨_, rfl⟩
                rw [hL] at HL ⊢
                clear c60 c33 c63 c47 c62 hin ha hL
                go_enter Tryz.func16, Tryz.ntmps16
                go_wp2_with (fail)
                refine (HL _).out.mono ?_
                rintro e w1 ⟨rfl, rfl⟩
                go_wp2
                go_ret
                exact ⟨ret_bool (by simp), Below.refl _ _⟩
            · rw [List.drop_eq_nil_of_le (i := k + 1 + 1) (by rw [← Lib.size_eq]; omega)]
              have hk3 : (s.size : Int) = (k : Int) + 2 := by omega
              clear c60 c33 c63 c47 hin ha
              go_enter Tryz.func16, Tryz.ntmps16
              go_wp2
              go_ret
              exact ⟨rfl, Below.refl _ _⟩
          · have b47 : (((s[k + 1].toNat : Nat) : Int) == 47) = false := by
              rw [beq_eq_false_iff_ne]; exact fun h => c47 (u8_eq _ 47 (by decide) h)
            rw [if_neg c47]
            clear c60 c33 c63 c47 hin ha
            go_enter Tryz.func16, Tryz.ntmps16
            go_wp2
            go_ret
            exact ⟨rfl, Below.refl _ _⟩
    · have b60 : (((s[k].toNat : Nat) : Int) != 60) = true := by
        rw [bne_iff_ne]; exact fun h => c60 (u8_eq _ 60 (by decide) h)
      rw [show (s[k] == 60) = false from beq_eq_false_iff_ne.2 c60, Bool.false_and]
      clear c60 hin ha
      go_enter Tryz.func16, Tryz.ntmps16
      go_wp2
      go_ret
      exact ⟨rfl, Below.refl _ _⟩
  · have hV : cbegV s.data.toList a = false := by
      unfold cbegV
      by_cases h0 : 0 ≤ a
      · rw [begC_short _ (by rw [List.length_drop, ← Lib.size_eq]; omega), Bool.and_false]
      · rw [decide_eq_false h0, Bool.false_and]
    rw [hV]
    clear hV
    by_cases h0 : a < 0
    · go_enter Tryz.func16, Tryz.ntmps16
      go_wp2
      go_ret
      exact ⟨rfl, Below.refl _ _⟩
    · have d0 : decide (a < 0) = false := decide_eq_false h0
      have d1 : decide ((s.size : Int) - 1 ≤ a) = true := decide_eq_true (by omega)
      clear hin h0
      go_enter Tryz.func16, Tryz.ntmps16
      go_wp2
      go_ret
      exact ⟨rfl, Below.refl _ _⟩

theorem ret_pair {a b : ByteArray} {m n : Int} (h1 : a = b) (h2 : m = n) : Ending.returned (.tuple #[.string a, .int .i64 m]) = .returned (.tuple #[.string b, .int .i64 n]) := by rw [h1, h2]
/-- a scan from a place on -/
theorem scan_from (s : ByteArray) (i : Nat) (h : i < s.size) (R : Option (Txt × Nat)) (hR : (scanC (s.data.toList.drop i)).map (fun r => (s.data.toList.take i ++ r.1, r.2 + i)) = R)
    (h1 : [45, 45, 62].isPrefixOf (s.data.toList.drop i) = false) (h2 : [45, 45, 33, 62].isPrefixOf (s.data.toList.drop i) = false) :
    (scanC (s.data.toList.drop (i + 1))).map (fun r => (s.data.toList.take (i + 1) ++ r.1, r.2 + (i + 1))) = R := by
  rw [drop_at s i h] at h1 h2 hR
  rw [scan_step _ _ h1 h2] at hR
  rw [← hR]
  have ht : s.data.toList.take (i + 1) = s.data.toList.take i ++ [s[i]] := by
    rw [List.take_add_one, List.getElem?_eq_getElem (by rw [← Lib.size_eq]; exact h)]; rfl
  cases scanC (s.data.toList.drop (i + 1)) with
  | none => rfl
  | some r => simp [ht]; omega
theorem scan_hit (l : Txt) : ([45, 45, 62].isPrefixOf l = true → scanC l = some ([], 3)) ∧ ([45, 45, 62].isPrefixOf l = false → [45, 45, 33, 62].isPrefixOf l = true → scanC l = some ([], 4)) := by
  cases l with
  | nil => exact ⟨fun h => by simp [List.isPrefixOf] at h, fun _ h => by simp [List.isPrefixOf] at h⟩
  | cons c t => exact ⟨fun h => by rw [scanC, if_pos h], fun h1 h2 => by rw [scanC, h1, if_neg Bool.false_ne_true, if_pos h2]⟩
theorem drop_text (s : ByteArray) (i : Nat) : (s.extract i s.size).data.toList = s.data.toList.drop i := by
  rw [Lib.extract_data, List.take_of_length_le (by rw [List.length_drop, ← Lib.size_eq]; exact Nat.le_refl _)]
theorem take_text (s : ByteArray) (i : Nat) : (s.extract 0 i).data.toList = s.data.toList.take i := by
  rw [Lib.extract_data, List.drop_zero, Nat.sub_zero]

end Go.Proofs.YtcamkphanakkdaaGreatDoor
