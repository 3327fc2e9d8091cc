/-
  The law DoctypeCase of flail/flaillaw11 answers true for every input, and changes nothing that was there. No condition.
-/
import Derived.Test.YtbceopiipigljaaRows
import Derived.Test.YtbceopiipigljaaDtAwake
import Derived.Test.YtbceopiipigljaaDtAt
import Derived.Test.YtbceopiipigljaaP4
import Derived.WalkKit
import Derived.ProofKit
import Derived.ChangeOld
import Derived.Below
import Derived.OpenShut
import Derived.ShutString
namespace Go.Proofs.Ytbceopiipigljaa.doctypeCase
open Go.ChangeShapes Go.WideShapes Go.ChangeAt Go.RowKit
open Go.ChangeMaps (open_string shut_string)
set_option linter.unusedVariables false      -- a walk need not use every 'w<i>' (that an integer argument fits its kind)

theorem own : ownKnob Try.prog.godebug = none := by kernel_rfl

/-- no text is longer than n -/
def Short (n : Nat) (d : DocP) : Prop := d.pub.length ≤ n ∧ d.sys.length ≤ n
theorem short_q {n : Nat} {d : DocP} (h : Short n d) (b : Bool) : Short n { d with q := b } := h
theorem st5_short {n : Nat} {d : DocP} (h : Short n d) (ended : Bool) (c : UInt8) (t : Txt) (ht : 3 * t.length ≤ n) : Short n (st5 d ended c t) := by
  have h1 := (cleanL_len (t.takeWhile (· != c))).2
  have h2 := (List.takeWhile_sublist (l := t) (· != c)).length_le
  unfold st5
  split
  · exact ⟨h.1, by simp only; omega⟩
  · exact ⟨h.1, by simp only; omega⟩
theorem st4_short {n : Nat} {d : DocP} (h : Short n d) (ended : Bool) (l : Txt) (ht : 3 * l.length ≤ n) : Short n (st4 d ended l) := by
  have h2 := (List.dropWhile_sublist (l := l) spaB).length_le
  unfold st4
  split
  · exact short_q h _
  · rename_i c t hc
    rw [hc, List.length_cons] at h2
    split
    · exact st5_short h _ _ _ (by omega)
    · exact short_q h _
theorem st3_short {n : Nat} {d : DocP} (h : Short n d) (ended : Bool) (l : Txt) (ht : 3 * l.length ≤ n) : Short n (st3 d ended l) := by
  have h2 := (List.dropWhile_sublist (l := l) spaB).length_le
  unfold st3
  split
  · exact short_q h _
  · rename_i c t hc
    rw [hc, List.length_cons] at h2
    have h3 := (cleanL_len (t.takeWhile (· != c))).2
    have h4 := (List.takeWhile_sublist (l := t) (· != c)).length_le
    have h5 := (List.dropWhile_sublist (l := t) (· != c)).length_le
    split
    · split
      · exact ⟨by simp only; omega, h.2⟩
      · rename_i x z hz
        rw [hz, List.length_cons] at h5
        have h6 := (List.dropWhile_sublist (l := z) spaB).length_le
        split
        · exact ⟨by simp only; omega, h.2⟩
        · rename_i e u hu
          rw [hu, List.length_cons] at h6
          split
          · exact st5_short (d := { d with pub := cleanL (t.takeWhile (· != c)), hp := true }) ⟨by simp only; omega, h.2⟩ _ _ _ (by omega)
          · exact ⟨by simp only; omega, h.2⟩
    · exact short_q h _
theorem parse_short (l : Txt) (ended : Bool) : Short (3 * l.length) (parseD l ended) := by
  have h2 := (List.dropWhile_sublist (l := l) spaB).length_le
  unfold parseD
  split
  · exact ⟨Nat.zero_le _, Nat.zero_le _⟩
  · rename_i r hr
    have h3 := (List.dropWhile_sublist (l := l.dropWhile spaB) (fun c => !spaB c)).length_le
    have h4 := (List.dropWhile_sublist (l := (l.dropWhile spaB).dropWhile (fun c => !spaB c)) spaB).length_le
    have hd : ∀ b, Short (3 * l.length) (⟨dtN (l.dropWhile spaB), [], [], true, false, false, b⟩ : DocP) := fun b => ⟨Nat.zero_le _, Nat.zero_le _⟩
    unfold st2
    split
    · exact hd _
    · split
      · exact st3_short (hd _) _ _ (by rw [List.length_drop]; omega)
      · split
        · exact st4_short (hd _) _ _ (by rw [List.length_drop]; omega)
        · exact hd _
theorem low_text (x : Txt) : (⟨(lowL x).toArray⟩ : ByteArray) = lowS ⟨x.toArray⟩ := str_ext (by rw [List.toList_toArray, lowS_list, List.toList_toArray])
set_option maxRecDepth 100000 in
set_option maxHeartbeats 8000000 in
theorem walk (a0 : ByteArray) (a1 : Bool) (w0 : a0.size ≤ maxLen) (w : World) :
    Calls Try.prog 8 #[.string a0, .bool a1] w fun e w' => e = .returned (.bool true) ∧ Below w.heap.size w w' := by
  clear w0
  have HW := Lib.hid (dtLaid_here w)
  skip
  by_cases hlen : 300 < a0.size
  · have hc : decide ((300 : Int) < (a0.size : Int)) = true := decide_eq_true (by omega)
    clear hlen
    go_enter Try.func8, Try.ntmps8
    go_wp2_with (fail)
    refine (dtAwake_any w HW.out).mono ?_
    rintro e w1 ⟨rfl, c1⟩
    go_wp2
    go_ret
    exact ⟨rfl, c1⟩
  have hs0 : a0.size ≤ 300 := by omega
  have d0 : decide ((300 : Int) < (a0.size : Int)) = false := decide_eq_false (by omega)
  clear hlen
  have HL := fun w => Lib.hid (lower a0 w (by omega))
  have HR1 := fun w h => Lib.hid (dctParse_any a0 a1 w (by omega) h)
  have HR2 := fun w h => Lib.hid (dctParse_any (lowS a0) a1 w (by rw [lowS_size]; omega) h)
  have hsh := parse_short a0.data.toList a1
  rw [← Lib.size_eq] at hsh
  rw [lowS_list, parse_low] at HR2
  obtain ⟨D, hD⟩ : ∃ D, parseD a0.data.toList a1 = D := ⟨_, rfl⟩
  rw [hD] at HR1 HR2 hsh
  obtain ⟨nm, pu, sy, b1, b2, b3, b4⟩ := D
  obtain ⟨s1, s2⟩ := hsh
  simp only at s1 s2
  clear hD
  unfold docV at HR1 HR2
  simp only [lowD, low_text] at HR2
  obtain ⟨N, hN⟩ : ∃ N : ByteArray, (⟨nm.toArray⟩ : ByteArray) = N := ⟨_, rfl⟩
  obtain ⟨P, hP⟩ : ∃ N : ByteArray, (⟨pu.toArray⟩ : ByteArray) = N := ⟨_, rfl⟩
  obtain ⟨S, hS⟩ : ∃ N : ByteArray, (⟨sy.toArray⟩ : ByteArray) = N := ⟨_, rfl⟩
  have hPs : P.size ≤ 1099511627776 := by rw [← hP, Lib.size_eq, List.toList_toArray]; omega
  have hSs : S.size ≤ 1099511627776 := by rw [← hS, Lib.size_eq, List.toList_toArray]; omega
  simp only [hN, hP, hS] at HR1 HR2
  have HL1 := fun w => Lib.hid (lower P w hPs)
  have HL2 := fun w => Lib.hid (lower S w hSs)
  obtain ⟨LA, hLA⟩ : ∃ X, lowS a0 = X := ⟨_, rfl⟩
  obtain ⟨LP, hLP⟩ : ∃ X, lowS P = X := ⟨_, rfl⟩
  obtain ⟨LS, hLS⟩ : ∃ X, lowS S = X := ⟨_, rfl⟩
  simp only [hLA] at HL HR2
  simp only [hLP, hLS] at HR2
  rw [hLP] at HL1
  rw [hLS] at HL2
  clear s1 s2 hN hP hS hLA hLP hLS hPs hSs
  have hcells : ∀ (u : World) (g : Nat) (x0 x1 x2 x3 x4 x5 x6 : Value), u.heap[g]? = some (.cells #[x0, x1, x2, x3, x4, x5, x6] 31 (0, 0)) → (u.cell? ⟨g, 0, none⟩ = some x0 ∧ u.cell? ⟨g, 1, none⟩ = some x1 ∧ u.cell? ⟨g, 2, none⟩ = some x2 ∧ u.cell? ⟨g, 3, none⟩ = some x3 ∧
      u.cell? ⟨g, 4, none⟩ = some x4 ∧ u.cell? ⟨g, 5, none⟩ = some x5 ∧ u.cell? ⟨g, 6, none⟩ = some x6) := fun u g x0 x1 x2 x3 x4 x5 x6 h => by
    refine ⟨?_, ?_, ?_, ?_, ?_, ?_, ?_⟩ <;> (rw [cell_of_row _ _ _ _ _ _ h]; rfl)
  have HCE := Lib.hid hcells
  clear hcells
  go_enter Try.func8, Try.ntmps8
  go_wp2_with (fail)
  refine (dtAwake_any w HW.out).mono ?_
  rintro e w1 ⟨rfl, c1⟩
  go_wp2_with (fail)
  refine (HR1 _ (HW.out.below c1)).out.mono ?_
  rintro e w2 ⟨rfl, c2⟩
  have C2 := Lib.hid (c1.trans (c2.mono c1.size))
  clear c2
  go_wp2_with (fail)
  have B3 := Lib.hid (below_new C2.out (.cells #[.string N, .string P, .string S, .bool b1, .bool b2, .bool b3, .bool b4] 31))
  have R2 := Lib.hid (heap_alloc_new w2 (.cells #[.string N, .string P, .string S, .bool b1, .bool b2, .bool b3, .bool b4] 31))
  refine (HL _).out.mono ?_
  rintro e w3 ⟨rfl, c3⟩
  have R3 := Lib.hid ((c3.block _ (by simp)).trans R2.out)
  have B4 := Lib.hid (B3.out.trans (c3.mono B3.out.size))
  have hlt3 : w2.heap.size < w3.heap.size := by have := c3.size; simp at this; omega
  clear c3
  go_wp2_with (fail)
  refine (HR2 _ (HW.out.below B4.out)).out.mono ?_
  rintro e w4 ⟨rfl, c4⟩
  have R4 := Lib.hid ((c4.block _ hlt3).trans R3.out)
  have B5 := Lib.hid (B4.out.trans (c4.mono B4.out.size))
  have hlt4 : w2.heap.size < w4.heap.size := by have := c4.size; omega
  clear c4
  have R5 := Lib.hid ((((Below.refl _ w4).alloc (Nat.le_refl _) (.cells #[.string N, .string LP, .string LS, .bool b1, .bool b2, .bool b3, .bool b4] 31)).block _ hlt4).trans R4.out)
  have B6 := Lib.hid (below_new B5.out (.cells #[.string N, .string LP, .string LS, .bool b1, .bool b2, .bool b3, .bool b4] 31))
  have E5 := Lib.hid (heap_alloc_new w4 (.cells #[.string N, .string LP, .string LS, .bool b1, .bool b2, .bool b3, .bool b4] 31))
  obtain ⟨W, hW⟩ : ∃ W, w4.alloc (.cells #[.string N, .string LP, .string LS, .bool b1, .bool b2, .bool b3, .bool b4] 31) = W := ⟨_, rfl⟩
  rw [hW] at R5 B6 E5
  have HWW := Lib.hid hW
  obtain ⟨x0, x1, x2, x3, x4, x5, x6⟩ := HCE.out _ _ _ _ _ _ _ _ _ R5.out
  obtain ⟨y0, y1, y2, y3, y4, y5, y6⟩ := HCE.out _ _ _ _ _ _ _ _ _ E5.out
  have l2 : w2.heap.size < W.heap.size := (Array.getElem?_eq_some_iff.1 R5.out).1
  have l4 : w4.heap.size < W.heap.size := (Array.getElem?_eq_some_iff.1 E5.out).1
  have hd : (W.drew.cell? ⟨w2.heap.size, 0, none⟩ = some (.string N) ∧ W.drew.cell? ⟨w2.heap.size, 1, none⟩ = some (.string P) ∧ W.drew.cell? ⟨w2.heap.size, 2, none⟩ = some (.string S) ∧ W.drew.cell? ⟨w2.heap.size, 3, none⟩ = some (.bool b1) ∧ W.drew.cell? ⟨w2.heap.size, 4, none⟩ = some (.bool b2) ∧ W.drew.cell? ⟨w2.heap.size, 5, none⟩ = some (.bool b3) ∧ W.drew.cell? ⟨w2.heap.size, 6, none⟩ = some (.bool b4) ∧ W.drew.cell? ⟨w4.heap.size, 0, none⟩ = some (.string N) ∧ W.drew.cell? ⟨w4.heap.size, 1, none⟩ = some (.string LP) ∧ W.drew.cell? ⟨w4.heap.size, 2, none⟩ = some (.string LS) ∧ W.drew.cell? ⟨w4.heap.size, 3, none⟩ = some (.bool b1) ∧ W.drew.cell? ⟨w4.heap.size, 4, none⟩ = some (.bool b2) ∧ W.drew.cell? ⟨w4.heap.size, 5, none⟩ = some (.bool b3) ∧ W.drew.cell? ⟨w4.heap.size, 6, none⟩ = some (.bool b4) ∧ Below W.heap.size W W.drew) := ⟨x0, x1, x2, x3, x4, x5, x6, y0, y1, y2, y3, y4, y5, y6, (Below.refl _ W).drew⟩
  have hk : ∀ u v : World, (u.cell? ⟨w2.heap.size, 0, none⟩ = some (.string N) ∧ u.cell? ⟨w2.heap.size, 1, none⟩ = some (.string P) ∧ u.cell? ⟨w2.heap.size, 2, none⟩ = some (.string S) ∧ u.cell? ⟨w2.heap.size, 3, none⟩ = some (.bool b1) ∧ u.cell? ⟨w2.heap.size, 4, none⟩ = some (.bool b2) ∧ u.cell? ⟨w2.heap.size, 5, none⟩ = some (.bool b3) ∧ u.cell? ⟨w2.heap.size, 6, none⟩ = some (.bool b4) ∧ u.cell? ⟨w4.heap.size, 0, none⟩ = some (.string N) ∧ u.cell? ⟨w4.heap.size, 1, none⟩ = some (.string LP) ∧ u.cell? ⟨w4.heap.size, 2, none⟩ = some (.string LS) ∧ u.cell? ⟨w4.heap.size, 3, none⟩ = some (.bool b1) ∧ u.cell? ⟨w4.heap.size, 4, none⟩ = some (.bool b2) ∧ u.cell? ⟨w4.heap.size, 5, none⟩ = some (.bool b3) ∧ u.cell? ⟨w4.heap.size, 6, none⟩ = some (.bool b4) ∧ Below W.heap.size W u) → Below u.heap.size u v → (v.cell? ⟨w2.heap.size, 0, none⟩ = some (.string N) ∧ v.cell? ⟨w2.heap.size, 1, none⟩ = some (.string P) ∧ v.cell? ⟨w2.heap.size, 2, none⟩ = some (.string S) ∧ v.cell? ⟨w2.heap.size, 3, none⟩ = some (.bool b1) ∧ v.cell? ⟨w2.heap.size, 4, none⟩ = some (.bool b2) ∧ v.cell? ⟨w2.heap.size, 5, none⟩ = some (.bool b3) ∧ v.cell? ⟨w2.heap.size, 6, none⟩ = some (.bool b4) ∧ v.cell? ⟨w4.heap.size, 0, none⟩ = some (.string N) ∧ v.cell? ⟨w4.heap.size, 1, none⟩ = some (.string LP) ∧ v.cell? ⟨w4.heap.size, 2, none⟩ = some (.string LS) ∧ v.cell? ⟨w4.heap.size, 3, none⟩ = some (.bool b1) ∧ v.cell? ⟨w4.heap.size, 4, none⟩ = some (.bool b2) ∧ v.cell? ⟨w4.heap.size, 5, none⟩ = some (.bool b3) ∧ v.cell? ⟨w4.heap.size, 6, none⟩ = some (.bool b4) ∧ Below W.heap.size W v) := fun u v h b => by
    obtain ⟨x0, x1, x2, x3, x4, x5, x6, y0, y1, y2, y3, y4, y5, y6, hb⟩ := h
    have m2 : w2.heap.size < u.heap.size := Nat.lt_of_lt_of_le l2 hb.size
    have m4 : w4.heap.size < u.heap.size := Nat.lt_of_lt_of_le l4 hb.size
    have c2 : ∀ i, v.cell? ⟨w2.heap.size, i, none⟩ = u.cell? ⟨w2.heap.size, i, none⟩ := fun i => b.cell (p := ⟨w2.heap.size, i, none⟩) m2
    have c4 : ∀ i, v.cell? ⟨w4.heap.size, i, none⟩ = u.cell? ⟨w4.heap.size, i, none⟩ := fun i => b.cell (p := ⟨w4.heap.size, i, none⟩) m4
    simp only [c2, c4]
    exact ⟨x0, x1, x2, x3, x4, x5, x6, y0, y1, y2, y3, y4, y5, y6, hb.trans (b.mono hb.size)⟩
  have cA : Hid (∀ u : World, (u.cell? ⟨w2.heap.size, 0, none⟩ = some (.string N) ∧ u.cell? ⟨w2.heap.size, 1, none⟩ = some (.string P) ∧ u.cell? ⟨w2.heap.size, 2, none⟩ = some (.string S) ∧ u.cell? ⟨w2.heap.size, 3, none⟩ = some (.bool b1) ∧ u.cell? ⟨w2.heap.size, 4, none⟩ = some (.bool b2) ∧ u.cell? ⟨w2.heap.size, 5, none⟩ = some (.bool b3) ∧ u.cell? ⟨w2.heap.size, 6, none⟩ = some (.bool b4) ∧ u.cell? ⟨w4.heap.size, 0, none⟩ = some (.string N) ∧ u.cell? ⟨w4.heap.size, 1, none⟩ = some (.string LP) ∧ u.cell? ⟨w4.heap.size, 2, none⟩ = some (.string LS) ∧ u.cell? ⟨w4.heap.size, 3, none⟩ = some (.bool b1) ∧ u.cell? ⟨w4.heap.size, 4, none⟩ = some (.bool b2) ∧ u.cell? ⟨w4.heap.size, 5, none⟩ = some (.bool b3) ∧ u.cell? ⟨w4.heap.size, 6, none⟩ = some (.bool b4) ∧ Below W.heap.size W u) → Calls Try.prog 17 #[.string P] u fun e v => e = .returned (.string LP) ∧ (v.cell? ⟨w2.heap.size, 0, none⟩ = some (.string N) ∧ v.cell? ⟨w2.heap.size, 1, none⟩ = some (.string P) ∧ v.cell? ⟨w2.heap.size, 2, none⟩ = some (.string S) ∧ v.cell? ⟨w2.heap.size, 3, none⟩ = some (.bool b1) ∧ v.cell? ⟨w2.heap.size, 4, none⟩ = some (.bool b2) ∧ v.cell? ⟨w2.heap.size, 5, none⟩ = some (.bool b3) ∧ v.cell? ⟨w2.heap.size, 6, none⟩ = some (.bool b4) ∧ v.cell? ⟨w4.heap.size, 0, none⟩ = some (.string N) ∧ v.cell? ⟨w4.heap.size, 1, none⟩ = some (.string LP) ∧ v.cell? ⟨w4.heap.size, 2, none⟩ = some (.string LS) ∧ v.cell? ⟨w4.heap.size, 3, none⟩ = some (.bool b1) ∧ v.cell? ⟨w4.heap.size, 4, none⟩ = some (.bool b2) ∧ v.cell? ⟨w4.heap.size, 5, none⟩ = some (.bool b3) ∧ v.cell? ⟨w4.heap.size, 6, none⟩ = some (.bool b4) ∧ Below W.heap.size W v)) := Lib.hid fun u h => by
    refine (HL1 u).out.mono ?_
    rintro e v ⟨rfl, b⟩
    exact ⟨rfl, hk u v h b⟩
  have cB : Hid (∀ u : World, (u.cell? ⟨w2.heap.size, 0, none⟩ = some (.string N) ∧ u.cell? ⟨w2.heap.size, 1, none⟩ = some (.string P) ∧ u.cell? ⟨w2.heap.size, 2, none⟩ = some (.string S) ∧ u.cell? ⟨w2.heap.size, 3, none⟩ = some (.bool b1) ∧ u.cell? ⟨w2.heap.size, 4, none⟩ = some (.bool b2) ∧ u.cell? ⟨w2.heap.size, 5, none⟩ = some (.bool b3) ∧ u.cell? ⟨w2.heap.size, 6, none⟩ = some (.bool b4) ∧ u.cell? ⟨w4.heap.size, 0, none⟩ = some (.string N) ∧ u.cell? ⟨w4.heap.size, 1, none⟩ = some (.string LP) ∧ u.cell? ⟨w4.heap.size, 2, none⟩ = some (.string LS) ∧ u.cell? ⟨w4.heap.size, 3, none⟩ = some (.bool b1) ∧ u.cell? ⟨w4.heap.size, 4, none⟩ = some (.bool b2) ∧ u.cell? ⟨w4.heap.size, 5, none⟩ = some (.bool b3) ∧ u.cell? ⟨w4.heap.size, 6, none⟩ = some (.bool b4) ∧ Below W.heap.size W u) → Calls Try.prog 17 #[.string S] u fun e v => e = .returned (.string LS) ∧ (v.cell? ⟨w2.heap.size, 0, none⟩ = some (.string N) ∧ v.cell? ⟨w2.heap.size, 1, none⟩ = some (.string P) ∧ v.cell? ⟨w2.heap.size, 2, none⟩ = some (.string S) ∧ v.cell? ⟨w2.heap.size, 3, none⟩ = some (.bool b1) ∧ v.cell? ⟨w2.heap.size, 4, none⟩ = some (.bool b2) ∧ v.cell? ⟨w2.heap.size, 5, none⟩ = some (.bool b3) ∧ v.cell? ⟨w2.heap.size, 6, none⟩ = some (.bool b4) ∧ v.cell? ⟨w4.heap.size, 0, none⟩ = some (.string N) ∧ v.cell? ⟨w4.heap.size, 1, none⟩ = some (.string LP) ∧ v.cell? ⟨w4.heap.size, 2, none⟩ = some (.string LS) ∧ v.cell? ⟨w4.heap.size, 3, none⟩ = some (.bool b1) ∧ v.cell? ⟨w4.heap.size, 4, none⟩ = some (.bool b2) ∧ v.cell? ⟨w4.heap.size, 5, none⟩ = some (.bool b3) ∧ v.cell? ⟨w4.heap.size, 6, none⟩ = some (.bool b4) ∧ Below W.heap.size W v)) := Lib.hid fun u h => by
    refine (HL2 u).out.mono ?_
    rintro e v ⟨rfl, b⟩
    exact ⟨rfl, hk u v h b⟩
  have FIN : Hid (∀ u : World, (u.cell? ⟨w2.heap.size, 0, none⟩ = some (.string N) ∧ u.cell? ⟨w2.heap.size, 1, none⟩ = some (.string P) ∧ u.cell? ⟨w2.heap.size, 2, none⟩ = some (.string S) ∧ u.cell? ⟨w2.heap.size, 3, none⟩ = some (.bool b1) ∧ u.cell? ⟨w2.heap.size, 4, none⟩ = some (.bool b2) ∧ u.cell? ⟨w2.heap.size, 5, none⟩ = some (.bool b3) ∧ u.cell? ⟨w2.heap.size, 6, none⟩ = some (.bool b4) ∧ u.cell? ⟨w4.heap.size, 0, none⟩ = some (.string N) ∧ u.cell? ⟨w4.heap.size, 1, none⟩ = some (.string LP) ∧ u.cell? ⟨w4.heap.size, 2, none⟩ = some (.string LS) ∧ u.cell? ⟨w4.heap.size, 3, none⟩ = some (.bool b1) ∧ u.cell? ⟨w4.heap.size, 4, none⟩ = some (.bool b2) ∧ u.cell? ⟨w4.heap.size, 5, none⟩ = some (.bool b3) ∧ u.cell? ⟨w4.heap.size, 6, none⟩ = some (.bool b4) ∧ Below W.heap.size W u) → Below w.heap.size w u) := Lib.hid fun u h => by
    obtain ⟨-, -, -, -, -, -, -, -, -, -, -, -, -, -, hb⟩ := h
    exact B6.out.trans (hb.mono B6.out.size)
  clear hW hk x0 x1 x2 x3 x4 x5 x6 y0 y1 y2 y3 y4 y5 y6 l2 l4
  go_wp2_with (fail)
  rw [HWW.out]
  go_region_held3 (fun u : World => u.cell? ⟨w2.heap.size, 0, none⟩ = some (.string N) ∧ u.cell? ⟨w2.heap.size, 1, none⟩ = some (.string P) ∧ u.cell? ⟨w2.heap.size, 2, none⟩ = some (.string S) ∧ u.cell? ⟨w2.heap.size, 3, none⟩ = some (.bool b1) ∧ u.cell? ⟨w2.heap.size, 4, none⟩ = some (.bool b2) ∧ u.cell? ⟨w2.heap.size, 5, none⟩ = some (.bool b3) ∧ u.cell? ⟨w2.heap.size, 6, none⟩ = some (.bool b4) ∧ u.cell? ⟨w4.heap.size, 0, none⟩ = some (.string N) ∧ u.cell? ⟨w4.heap.size, 1, none⟩ = some (.string LP) ∧ u.cell? ⟨w4.heap.size, 2, none⟩ = some (.string LS) ∧ u.cell? ⟨w4.heap.size, 3, none⟩ = some (.bool b1) ∧ u.cell? ⟨w4.heap.size, 4, none⟩ = some (.bool b2) ∧ u.cell? ⟨w4.heap.size, 5, none⟩ = some (.bool b3) ∧ u.cell? ⟨w4.heap.size, 6, none⟩ = some (.bool b4) ∧ Below W.heap.size W u)
    (first | exact hd | assumption)
    (first
      | (go_at_call 17; (with_reducible refine (cA.out _ ‹_›).mono ?_); rintro e w' ⟨rfl, hb⟩)
      | (go_at_call 17; (with_reducible refine (cB.out _ ‹_›).mono ?_); rintro e w' ⟨rfl, hb⟩))
  all_goals (go_wp2; go_ret; exact ⟨by simp, FIN.out _ ‹_›⟩)
  -- go_wp2
  -- go_ret
  -- exact ⟨rfl, by repeat (first | exact Grown.refl _ | apply Grown.drew | apply Grown.alloc)⟩

set_option maxRecDepth 100000 in
theorem lifted (os : Os) (started : os.Started) (H : Type) (enc : TypeId × Value → H) :
    ReturnsInHanded {} Try.checked os 8 .any (Rows.doctypeCaseSpec.pre6 enc Try.prog Try.f8 Rows.doctypeCaseRow.domain false) (Rows.doctypeCaseSpec.post enc Try.prog Try.f8 false true false false) := by
  refine returnsInHanded_of_change (C := Try.checked) own started (by kernel_rfl) Try.func8
    (ChangeSpec.witness6 (enc := enc) (C := Try.checked) false ⟨#[], #[.string ByteArray.empty, .bool false], []⟩ 8 (by kernel_rfl) (by kernel_rfl) (by kernel_rfl) (by kernel_rfl)) ?_
  intro W base args ds gs before hval0 hW hcnd _
  have hval : ∀ (j : Nat) t v, Try.f8.params[j]? = some t → args[j]? = some v → Value.okWide Try.prog W .any base t v := hval0
  have hW' := hW
  obtain ⟨p, q, hA0, hV, rfl, hfz, hnd⟩ := hW
  have hA : DataW.TrodAll enc Try.prog W 0 (fun _ => true) true Try.f8.params.toList args.toList ds p := hA0
  rw [Try.params8] at hA hval
  obtain ⟨v0, vs0, d0, ds0, p0, q0, hargs, rfl, rfl, h0, r0⟩ := trodAll_cons hA
  obtain ⟨v1, vs1, d1, ds1, p1, q1, rfl, rfl, rfl, h1, r1⟩ := trodAll_cons r0
  obtain ⟨rfl, rfl, rfl⟩ := trodAll_nil r1
  obtain rfl : args = #[v0, v1] := by cases args; simp_all
  obtain ⟨rfl, rfl⟩ := trodVars_none hV
  obtain ⟨a0, rfl, rfl, rfl, w0⟩ := open_string Try.underlying9 (hval 0 9 v0 rfl rfl) h0
  obtain ⟨a1, rfl, rfl, rfl⟩ := open_bool Try.underlying4 (hval 1 4 v1 rfl rfl) h1
  clear hA0 hval0
  refine (walk a0 a1 w0 W).mono fun e W' ⟨he, bel⟩ => ?_
  subst he
  exact ⟨_, rfl, _, _, _, [], _, [], hW', trodAll_mk1 (shut_bool Try.underlying4 _), (trodAll_cons_mk (shut_string Try.underlying9 w0) (trodAll_cons_mk (shut_bool Try.underlying4 _) trodAll_mk0)), rfl, bel.frame _, fun h => by cases h⟩

theorem over : Rows.doctypeCaseRow.holds Try.pinned (OpenSpec.ofChange Rows.doctypeCaseSpec) :=
  OpenClaim.holds_of_wide 8 Try.f8 rfl rfl rfl rfl rfl rfl rfl ⟨rfl, rfl, rfl, rfl, rfl⟩ rfl rfl rfl rfl rfl (by kernel_rfl) Try.func8 (by kernel_rfl)
    (of_decide_eq_true (by kernel_rfl)) (by unfold Func.isWrapper; first | (rw [if_pos (by decide +kernel)]; kernel_rfl) | (rw [if_neg (by decide +kernel)]; exact ⟨rfl, rfl⟩))
    (fun os started H enc _ => lifted os started H enc)

/-- ████ THE STATEMENT ████ -/
theorem proved : Rows.DoctypeCaseSaid :=
  over
end Go.Proofs.Ytbceopiipigljaa.doctypeCase
