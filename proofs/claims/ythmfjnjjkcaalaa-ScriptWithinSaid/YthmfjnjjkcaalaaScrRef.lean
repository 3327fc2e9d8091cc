/-
  What the document's answers of layer 13 are.
-/
import Derived.Test.YthmfjnjjkcaalaaRawRef
import Derived.Test.YthmfjnjjkcaalaaScrMath
namespace Go.Proofs.Ythmfjnjjkcaalaa
open Go.RowKit Go.Lib

theorem begScr_at (s : ByteArray) (k : Nat) (low : ByteArray) (h : k ≤ s.size) : begS s (k : Int) low = low.data.toList.isPrefixOf (lowL (s.data.toList.drop k)) := by
  unfold begS
  rw [decide_eq_true (show 0 ≤ (k : Int) ∧ (k : Int) ≤ (s.size : Int) by omega), Bool.true_and, show ((k : Nat) : Int).toNat = k by omega]
theorem beg_word (s : ByteArray) (k : Nat) (op : ByteArray) (h : k ≤ s.size) : begS s (k : Int) (op ++ ⟨#[115, 99, 114, 105, 112, 116]⟩) = (op.data.toList ++ scL).isPrefixOf (lowL (s.data.toList.drop k)) := by
  rw [begScr_at s k _ h, ByteArray.data_append, Array.toList_append]
  rfl

set_option maxRecDepth 100000 in
set_option maxHeartbeats 2000000 in
theorem refWord13_any (s : ByteArray) (k : Nat) (op : ByteArray) (w : World) (hs : s.size ≤ 1048576) (hk : k < s.size) (ho : op.size ≤ 2) :
    Calls Try.prog 20 #[.string s, .int .i64 (k : Int), .string op] w fun e w' => e = .returned (.bool (wordR op.data.toList (s.data.toList.drop k))) ∧ Below w.heap.size w w' := by
  have g1 : ¬ 9223372036854775807 < op.size + (⟨#[115, 99, 114, 105, 112, 116]⟩ : ByteArray).size := by
    rw [show (⟨#[115, 99, 114, 105, 112, 116]⟩ : ByteArray).size = 6 from rfl]; omega
  have HB := fun w => Lib.hid (refBegins s (k : Int) (op ++ ⟨#[115, 99, 114, 105, 112, 116]⟩) w (by omega) (by rw [ByteArray.size_append, show (⟨#[115, 99, 114, 105, 112, 116]⟩ : ByteArray).size = 6 from rfl]; omega) (by omega) (by omega))
  rw [beg_word s k op (by omega)] at HB
  have hv : wordR op.data.toList (s.data.toList.drop k) = ((op.data.toList ++ scL).isPrefixOf (lowL (s.data.toList.drop k)) && (s.data.toList.drop (k + op.size + 6)).head?.any tailB) := by
    unfold wordR
    rw [List.drop_drop, ← Lib.size_eq, show k + (op.size + 6) = k + op.size + 6 by omega]
  rw [hv]
  obtain ⟨B, hB⟩ : ∃ B, (op.data.toList ++ scL).isPrefixOf (lowL (s.data.toList.drop k)) = B := ⟨_, rfl⟩
  rw [hB] at HB ⊢
  clear hB hv
  cases B
  · rw [Bool.false_and]
    go_enter Try.func20, Try.ntmps20
    go_wp2_with (fail)
    refine (HB _).out.mono ?_
    rintro e w1 ⟨rfl, b1⟩
    go_wp2
    go_ret
    exact ⟨rfl, b1⟩
  · rw [Bool.true_and]
    obtain ⟨j, hj⟩ : ∃ j, k + op.size + 6 = j := ⟨_, rfl⟩
    rw [hj]
    have hjj : (k : Int) + (op.size : Int) + 6 = (j : Int) := by omega
    have hk20 : k ≤ 1048576 := by omega
    have hj2 : j ≤ 1048584 := by omega
    clear hj
    by_cases hlt : j < s.size
    · have dj : decide ((s.size : Int) ≤ (j : Int)) = false := decide_eq_false (by omega)
      rw [drop_at s j hlt]
      simp only [List.head?_cons, Option.any_some]
      rw [tailB_int]
      have HS := fun w => Lib.hid (refSpace ((s[j].toNat : Nat) : Int) w)
      obtain ⟨S, hS⟩ : ∃ S, spaceI ((s[j].toNat : Nat) : Int) = S := ⟨_, rfl⟩
      obtain ⟨T, hT⟩ : ∃ S, (((s[j].toNat : Nat) : Int) == 47) = S := ⟨_, rfl⟩
      obtain ⟨U, hU⟩ : ∃ S, (((s[j].toNat : Nat) : Int) == 62) = S := ⟨_, rfl⟩
      rw [hS] at HS
      rw [hS, hT, hU]
      clear hS
      rcases S with _ | _ <;> rcases T with _ | _ <;> rcases U with _ | _
      all_goals
        go_enter Try.func20, Try.ntmps20
        go_wp2_with (fail)
        refine (HB _).out.mono ?_
        rintro e w1 ⟨rfl, b1⟩
        go_wp2_with (fail)
        refine (HS _).out.mono ?_
        rintro e w2 ⟨rfl, rfl⟩
        go_wp2
        go_ret
        exact ⟨rfl, b1⟩
    · have dj : decide ((s.size : Int) ≤ (j : Int)) = true := decide_eq_true (by omega)
      rw [List.drop_eq_nil_of_le (by rw [← Lib.size_eq]; omega)]
      have hje : s.size ≤ j := by omega
      clear hlt
      go_enter Try.func20, Try.ntmps20
      go_wp2_with (fail)
      refine (HB _).out.mono ?_
      rintro e w1 ⟨rfl, b1⟩
      go_wp2
      go_ret
      exact ⟨rfl, b1⟩

/-- steps -/
theorem st_0e (k : Nat) (l : Txt) (h : endR scL l = true) : stepS 0 k l = none := by unfold stepS; rw [if_pos rfl, if_pos h]
theorem st_0c (k : Nat) (l : Txt) (h : endR scL l = false) (c : comL.isPrefixOf (lowL l) = true) : stepS 0 k l = some (4, 1, 2) := by
  unfold stepS; rw [if_pos rfl, if_neg (by rw [h]; simp), if_pos c]
theorem st_0n (k : Nat) (l : Txt) (h : endR scL l = false) (c : comL.isPrefixOf (lowL l) = false) : stepS 0 k l = some (1, 0, 0) := by
  unfold stepS; rw [if_pos rfl, if_neg (by rw [h]; simp), if_neg (by rw [c]; simp)]
theorem st_45 (st k : Nat) (l : Txt) (h0 : st ≠ 0) (h : l.head? = some 45) : stepS st k l = some (1, st, k + 1) := by
  unfold stepS; rw [if_neg h0, if_pos h]
theorem st_62 (st k : Nat) (l : Txt) (h0 : st ≠ 0) (h1 : l.head? ≠ some 45) (h : l.head? = some 62 ∧ 2 ≤ k) : stepS st k l = some (1, 0, 0) := by
  unfold stepS; rw [if_neg h0, if_neg h1, if_pos h]
theorem st_1e (k : Nat) (l : Txt) (h1 : l.head? ≠ some 45) (h : ¬ (l.head? = some 62 ∧ 2 ≤ k)) (e : endR scL l = true) : stepS 1 k l = none := by
  unfold stepS; rw [if_neg (by decide), if_neg h1, if_neg h, if_pos ⟨rfl, e⟩]
theorem st_1w (k : Nat) (l : Txt) (h1 : l.head? ≠ some 45) (h : ¬ (l.head? = some 62 ∧ 2 ≤ k)) (e : endR scL l = false) (o : wordR [60] l = true) : stepS 1 k l = some (8, 2, 0) := by
  unfold stepS; rw [if_neg (by decide), if_neg h1, if_neg h, if_neg (by rw [e]; simp), if_pos ⟨rfl, o⟩]
theorem st_1n (k : Nat) (l : Txt) (h1 : l.head? ≠ some 45) (h : ¬ (l.head? = some 62 ∧ 2 ≤ k)) (e : endR scL l = false) (o : wordR [60] l = false) : stepS 1 k l = some (1, 1, 0) := by
  unfold stepS; rw [if_neg (by decide), if_neg h1, if_neg h, if_neg (by rw [e]; simp), if_neg (by rw [o]; simp), if_neg (by simp)]
theorem st_2w (k : Nat) (l : Txt) (h1 : l.head? ≠ some 45) (h : ¬ (l.head? = some 62 ∧ 2 ≤ k)) (o : wordR [60, 47] l = true) : stepS 2 k l = some (9, 1, 0) := by
  unfold stepS; rw [if_neg (by decide), if_neg h1, if_neg h, if_neg (by simp), if_neg (by simp), if_pos ⟨rfl, o⟩]
theorem st_2n (k : Nat) (l : Txt) (h1 : l.head? ≠ some 45) (h : ¬ (l.head? = some 62 ∧ 2 ≤ k)) (o : wordR [60, 47] l = false) : stepS 2 k l = some (1, 2, 0) := by
  unfold stepS; rw [if_neg (by decide), if_neg h1, if_neg h, if_neg (by simp), if_neg (by simp), if_neg (by rw [o]; simp)]
theorem drop_ne (l : Txt) (i : Nat) (h : i < l.length) : l.drop i ≠ [] := fun e => by
  have := congrArg List.length e
  rw [List.length_drop, List.length_nil] at this; omega
theorem scr_go (l : Txt) (i st k n st' k' R1 R2 : Nat) (hl : i < l.length) (h : stepS st k (l.drop i) = some (n, st', k')) (hR : i + (scrV st k (l.drop i)).1 = R1 ∧ (scrV st k (l.drop i)).2 = R2) :
    i + n + (scrV st' k' (l.drop (i + n))).1 = R1 ∧ (scrV st' k' (l.drop (i + n))).2 = R2 := by
  rw [scr_step st k _ (drop_ne l i hl) n st' k' h, List.drop_drop] at hR
  exact ⟨by rw [← hR.1]; simp only; omega, hR.2⟩
theorem scr_halt (l : Txt) (i st k R1 R2 : Nat) (hl : i < l.length) (h : stepS st k (l.drop i) = none) (hR : i + (scrV st k (l.drop i)).1 = R1 ∧ (scrV st k (l.drop i)).2 = R2) : R1 = i ∧ R2 = st := by
  rw [scr_end st k _ (drop_ne l i hl) h] at hR
  exact ⟨hR.1.symm, hR.2.symm⟩
theorem scr_done (l : Txt) (i st k R1 R2 : Nat) (hl : i = l.length) (hR : i + (scrV st k (l.drop i)).1 = R1 ∧ (scrV st k (l.drop i)).2 = R2) : R1 = i ∧ R2 = st := by
  rw [List.drop_eq_nil_of_le (by omega), scr_nil] at hR
  exact ⟨hR.1.symm, hR.2.symm⟩
theorem ret_two {a b m n : Int} (h1 : a = b) (h2 : m = n) : Ending.returned (.tuple #[.int .i64 a, .int .i64 m]) = .returned (.tuple #[.int .i64 b, .int .i64 n]) := by rw [h1, h2]
theorem head_at (s : ByteArray) (i : Nat) (h : i < s.size) (c : UInt8) : ((s.data.toList.drop i).head? = some c) ↔ ((s[i].toNat : Nat) : Int) = (c.toNat : Int) := by
  rw [drop_at s i h, List.head?_cons, Option.some.injEq, ← UInt8.toNat_inj]
  omega

set_option maxRecDepth 100000 in
set_option maxHeartbeats 8000000 in
theorem refFind13_any (s : ByteArray) (a : Int) (w : World) (hs : s.size ≤ 1048576) (ha : -9223372036854775808 ≤ a ∧ a ≤ 9223372036854775807) :
    Calls Try.prog 11 #[.string s, .int .i64 a] w fun e w' => e = .returned (.tuple #[.int .i64 ((scrP s.data.toList a).1 : Int), .int .i64 ((scrP s.data.toList a).2 : Int)]) ∧ Below w.heap.size w w' := by
  obtain ⟨R1, hR1⟩ : ∃ R, (scrP s.data.toList a).1 = R := ⟨_, rfl⟩
  obtain ⟨R2, hR2⟩ : ∃ R, (scrP s.data.toList a).2 = R := ⟨_, rfl⟩
  obtain ⟨i0, hi0⟩ : ∃ i, plN s.data.toList.length a = i := ⟨_, rfl⟩
  have hmx : max (0 : Int) (min a (s.size : Int)) = (i0 : Int) := by
    rw [← hi0, ← Lib.size_eq]; unfold plN; omega
  have hi1 : i0 ≤ s.size := by rw [← hi0, ← Lib.size_eq]; unfold plN; omega
  have H0 : Hid (i0 + (scrV 0 0 (s.data.toList.drop i0)).1 = R1 ∧ (scrV 0 0 (s.data.toList.drop i0)).2 = R2) := Lib.hid (by
    unfold scrP at hR1 hR2
    rw [hi0] at hR1 hR2
    exact ⟨hR1, hR2⟩)
  rw [hR1, hR2]
  clear hR1 hR2 hi0
  have HMX := Lib.hid hmx
  have HEE := fun (i : Nat) (h : i < s.size) w => Lib.hid (show Calls Try.prog 19 #[.string s, .int .i64 (i : Int), .string ⟨#[115, 99, 114, 105, 112, 116]⟩] w fun e w' => e = .returned (.bool (endR scL (s.data.toList.drop i))) ∧ Below w.heap.size w w' from by
    have := refEnds12_any s (i : Int) ⟨#[115, 99, 114, 105, 112, 116]⟩ w hs (by decide) (by omega)
    rwa [endV_in] at this)
  have HII := fun (i : Nat) (h : i < s.size) w => Lib.hid (show Calls Try.prog 20 #[.string s, .int .i64 (i : Int), .string ⟨#[60]⟩] w fun e w' => e = .returned (.bool (wordR [60] (s.data.toList.drop i))) ∧ Below w.heap.size w w' from refWord13_any s i ⟨#[60]⟩ w hs h (by decide))
  have HOO := fun (i : Nat) (h : i < s.size) w => Lib.hid (show Calls Try.prog 20 #[.string s, .int .i64 (i : Int), .string ⟨#[60, 47]⟩] w fun e w' => e = .returned (.bool (wordR [60, 47] (s.data.toList.drop i))) ∧ Below w.heap.size w w' from refWord13_any s i ⟨#[60, 47]⟩ w hs h (by decide))
  have HCC := fun (i : Nat) (h : i < s.size) w => Lib.hid (show Calls Try.prog 21 #[.string s, .int .i64 (i : Int), .string ⟨#[60, 33, 45, 45]⟩] w fun e w' => e = .returned (.bool (comL.isPrefixOf (lowL (s.data.toList.drop i)))) ∧ Below w.heap.size w w' from by
    have := refBegins s (i : Int) ⟨#[60, 33, 45, 45]⟩ w (by omega) (by decide) (by omega) (by omega)
    rwa [begScr_at s i _ (by omega)] at this)
  go_enter Try.func11, Try.ntmps11
  go_wp2
  go_loopw [6, 7, 8] (fun v6 v7 v8 wr => ∃ st k i : Nat, v6 = .int .i64 (st : Int) ∧ v7 = .int .i64 (k : Int) ∧ v8 = .int .i64 (i : Int) ∧ st ≤ 2 ∧ (st = 0 → k = 0) ∧ k ≤ i ∧ i ≤ s.size ∧ Below w.heap.size w wr ∧ Hid (i + (scrV st k (s.data.toList.drop i)).1 = R1 ∧ (scrV st k (s.data.toList.drop i)).2 = R2)) (fun _ _ v _ => s.size - (intOf v).toNat)
  case atStart => exact ⟨0, 0, i0, rfl, rfl, by first | rfl | (rw [hmx]) | (simp [hmx]) | (simp only [← hmx]; congr 1; omega), by omega, fun _ => rfl, by omega, hi1, Below.refl _ _, H0⟩
  case round =>
    obtain ⟨st, k, i, rfl, rfl, rfl, hst, hz, hki, his, hb, HR⟩ := hrel
    clear hmx HMX H0 hi1
    have HBW := Lib.hid hb
    clear hb
    by_cases hlt : i < s.size
    · have hi20 : i ≤ 1048576 := by omega
      have hk20 : k ≤ 1048576 := by omega
      have HE := fun w => HEE i hlt w
      have HI := fun w => HII i hlt w
      have HO := fun w => HOO i hlt w
      have HC := fun w => HCC i hlt w
      clear HEE HII HOO HCC
      obtain ⟨E, hE⟩ : ∃ E, endR scL (s.data.toList.drop i) = E := ⟨_, rfl⟩
      obtain ⟨I, hI⟩ : ∃ E, wordR [60] (s.data.toList.drop i) = E := ⟨_, rfl⟩
      obtain ⟨O, hO⟩ : ∃ E, wordR [60, 47] (s.data.toList.drop i) = E := ⟨_, rfl⟩
      rw [hE] at HE
      rw [hI] at HI
      rw [hO] at HO
      by_cases h0 : st = 0
      · subst h0
        obtain rfl := hz rfl
        cases E
        · obtain ⟨C, hC⟩ : ∃ E, comL.isPrefixOf (lowL (s.data.toList.drop i)) = E := ⟨_, rfl⟩
          rw [hC] at HC
          cases C
          · have HN := Lib.hid (scr_go s.data.toList i 0 0 1 0 (0) R1 R2 (by rw [← Lib.size_eq]; exact hlt) (st_0n 0 _ hE hC) HR.out)
            clear hE hI hO HR
            go_wp2_with (fail)
            refine (HE _).out.mono ?_
            rintro e w2 ⟨rfl, c2⟩
            have B2 := Lib.hid (HBW.out.trans (c2.mono HBW.out.size))
            clear c2
            go_wp2_with (fail)
            refine (HI _).out.mono ?_
            rintro e w3 ⟨rfl, c3⟩
            have B3 := Lib.hid (B2.out.trans (c3.mono B2.out.size))
            clear c3
            go_wp2_with (fail)
            refine (HO _).out.mono ?_
            rintro e w4 ⟨rfl, c4⟩
            have B4 := Lib.hid (B3.out.trans (c4.mono B3.out.size))
            clear c4
            go_wp2_with (fail)
            refine (HC _).out.mono ?_
            rintro e w5 ⟨rfl, c5⟩
            have B5 := Lib.hid (B4.out.trans (c5.mono B4.out.size))
            clear c5
            go_wp2
            go_roundw
            case rel => exact ⟨0, 0, i + 1, by go_num, by go_num, by go_num, by omega, fun _ => rfl, by omega, by omega, B5.out, HN⟩
            case measure => simp [intOf]; omega
          · have hbd := com_len _ hC
            rw [List.length_drop, ← Lib.size_eq] at hbd
            have HN := Lib.hid (scr_go s.data.toList i 0 0 4 1 (2) R1 R2 (by rw [← Lib.size_eq]; exact hlt) (st_0c 0 _ hE hC) HR.out)
            clear hE hI hO HR
            go_wp2_with (fail)
            refine (HE _).out.mono ?_
            rintro e w2 ⟨rfl, c2⟩
            have B2 := Lib.hid (HBW.out.trans (c2.mono HBW.out.size))
            clear c2
            go_wp2_with (fail)
            refine (HI _).out.mono ?_
            rintro e w3 ⟨rfl, c3⟩
            have B3 := Lib.hid (B2.out.trans (c3.mono B2.out.size))
            clear c3
            go_wp2_with (fail)
            refine (HO _).out.mono ?_
            rintro e w4 ⟨rfl, c4⟩
            have B4 := Lib.hid (B3.out.trans (c4.mono B3.out.size))
            clear c4
            go_wp2_with (fail)
            refine (HC _).out.mono ?_
            rintro e w5 ⟨rfl, c5⟩
            have B5 := Lib.hid (B4.out.trans (c5.mono B4.out.size))
            clear c5
            go_wp2
            go_roundw
            case rel => exact ⟨1, 2, i + 4, by go_num, by go_num, by go_num, by omega, fun h => by omega, by omega, by omega, B5.out, HN⟩
            case measure => simp [intOf]; omega
        · have HN := Lib.hid (scr_halt s.data.toList i 0 0 R1 R2 (by rw [← Lib.size_eq]; exact hlt) (st_0e 0 _ hE) HR.out)
          clear hE hI hO HR
          go_wp2_with (fail)
          refine (HE _).out.mono ?_
          rintro e w2 ⟨rfl, c2⟩
          have B2 := Lib.hid (HBW.out.trans (c2.mono HBW.out.size))
          clear c2
          go_wp2_with (fail)
          refine (HI _).out.mono ?_
          rintro e w3 ⟨rfl, c3⟩
          have B3 := Lib.hid (B2.out.trans (c3.mono B2.out.size))
          clear c3
          go_wp2_with (fail)
          refine (HO _).out.mono ?_
          rintro e w4 ⟨rfl, c4⟩
          have B4 := Lib.hid (B3.out.trans (c4.mono B3.out.size))
          clear c4
          go_wp2
          go_ret2
          exact ⟨ret_two (by rw [HN.out.1]) (by rw [HN.out.2]; rfl), B4.out⟩
      clear HC hz
      by_cases h45 : ((s[i].toNat : Nat) : Int) = 45
      · have b45 : (((s[i].toNat : Nat) : Int) == 45) = true := by rw [beq_iff_eq]; exact h45
        have f45 := (head_at s i hlt 45).2 h45
        clear h45
        obtain h1 | h1 : st = 1 ∨ st = 2 := by omega
        · subst h1
          have HN := Lib.hid (scr_go s.data.toList i 1 k 1 1 (k + 1) R1 R2 (by rw [← Lib.size_eq]; exact hlt) (st_45 1 k _ h0 f45) HR.out)
          clear hE hI hO HR
          go_wp2_with (fail)
          refine (HE _).out.mono ?_
          rintro e w2 ⟨rfl, c2⟩
          have B2 := Lib.hid (HBW.out.trans (c2.mono HBW.out.size))
          clear c2
          go_wp2_with (fail)
          refine (HI _).out.mono ?_
          rintro e w3 ⟨rfl, c3⟩
          have B3 := Lib.hid (B2.out.trans (c3.mono B2.out.size))
          clear c3
          go_wp2_with (fail)
          refine (HO _).out.mono ?_
          rintro e w4 ⟨rfl, c4⟩
          have B4 := Lib.hid (B3.out.trans (c4.mono B3.out.size))
          clear c4
          go_wp2
          go_roundw
          case rel => exact ⟨1, k + 1, i + 1, by go_num, by go_num, by go_num, by omega, fun h => by omega, by omega, by omega, B4.out, HN⟩
          case measure => simp [intOf]; omega
        · subst h1
          have HN := Lib.hid (scr_go s.data.toList i 2 k 1 2 (k + 1) R1 R2 (by rw [← Lib.size_eq]; exact hlt) (st_45 2 k _ h0 f45) HR.out)
          clear hE hI hO HR
          go_wp2_with (fail)
          refine (HE _).out.mono ?_
          rintro e w2 ⟨rfl, c2⟩
          have B2 := Lib.hid (HBW.out.trans (c2.mono HBW.out.size))
          clear c2
          go_wp2_with (fail)
          refine (HI _).out.mono ?_
          rintro e w3 ⟨rfl, c3⟩
          have B3 := Lib.hid (B2.out.trans (c3.mono B2.out.size))
          clear c3
          go_wp2_with (fail)
          refine (HO _).out.mono ?_
          rintro e w4 ⟨rfl, c4⟩
          have B4 := Lib.hid (B3.out.trans (c4.mono B3.out.size))
          clear c4
          go_wp2
          go_roundw
          case rel => exact ⟨2, k + 1, i + 1, by go_num, by go_num, by go_num, by omega, fun h => by omega, by omega, by omega, B4.out, HN⟩
          case measure => simp [intOf]; omega
      have b45 : (((s[i].toNat : Nat) : Int) == 45) = false := by rw [beq_eq_false_iff_ne]; exact h45
      have f45 : (s.data.toList.drop i).head? ≠ some 45 := fun e => h45 ((head_at s i hlt 45).1 e)
      clear h45
      by_cases hk : ((s[i].toNat : Nat) : Int) = 62 ∧ 2 ≤ k
      · have b62 : (((s[i].toNat : Nat) : Int) == 62) = true := by rw [beq_iff_eq]; exact hk.1
        have bk : decide ((2 : Int) ≤ (k : Int)) = true := decide_eq_true (by omega)
        have f62 := (head_at s i hlt 62).2 hk.1
        have hk2 := hk.2
        clear hk
        obtain h1 | h1 : st = 1 ∨ st = 2 := by omega
        · subst h1
          have HN := Lib.hid (scr_go s.data.toList i 1 k 1 0 (0) R1 R2 (by rw [← Lib.size_eq]; exact hlt) (st_62 1 k _ h0 f45 ⟨f62, hk2⟩) HR.out)
          clear hE hI hO HR
          go_wp2_with (fail)
          refine (HE _).out.mono ?_
          rintro e w2 ⟨rfl, c2⟩
          have B2 := Lib.hid (HBW.out.trans (c2.mono HBW.out.size))
          clear c2
          go_wp2_with (fail)
          refine (HI _).out.mono ?_
          rintro e w3 ⟨rfl, c3⟩
          have B3 := Lib.hid (B2.out.trans (c3.mono B2.out.size))
          clear c3
          go_wp2_with (fail)
          refine (HO _).out.mono ?_
          rintro e w4 ⟨rfl, c4⟩
          have B4 := Lib.hid (B3.out.trans (c4.mono B3.out.size))
          clear c4
          go_wp2
          go_roundw
          case rel => exact ⟨0, 0, i + 1, by go_num, by go_num, by go_num, by omega, fun _ => rfl, by omega, by omega, B4.out, HN⟩
          case measure => simp [intOf]; omega
        · subst h1
          have HN := Lib.hid (scr_go s.data.toList i 2 k 1 0 (0) R1 R2 (by rw [← Lib.size_eq]; exact hlt) (st_62 2 k _ h0 f45 ⟨f62, hk2⟩) HR.out)
          clear hE hI hO HR
          go_wp2_with (fail)
          refine (HE _).out.mono ?_
          rintro e w2 ⟨rfl, c2⟩
          have B2 := Lib.hid (HBW.out.trans (c2.mono HBW.out.size))
          clear c2
          go_wp2_with (fail)
          refine (HI _).out.mono ?_
          rintro e w3 ⟨rfl, c3⟩
          have B3 := Lib.hid (B2.out.trans (c3.mono B2.out.size))
          clear c3
          go_wp2_with (fail)
          refine (HO _).out.mono ?_
          rintro e w4 ⟨rfl, c4⟩
          have B4 := Lib.hid (B3.out.trans (c4.mono B3.out.size))
          clear c4
          go_wp2
          go_roundw
          case rel => exact ⟨0, 0, i + 1, by go_num, by go_num, by go_num, by omega, fun _ => rfl, by omega, by omega, B4.out, HN⟩
          case measure => simp [intOf]; omega
      have hK : ¬ ((s.data.toList.drop i).head? = some 62 ∧ 2 ≤ k) := fun e => hk ⟨(head_at s i hlt 62).1 e.1, e.2⟩
      have hb2 : (((s[i].toNat : Nat) : Int) == 62) = false ∨ (((s[i].toNat : Nat) : Int) == 62) = true ∧ decide ((2 : Int) ≤ (k : Int)) = false := by
        by_cases h : ((s[i].toNat : Nat) : Int) = 62
        · exact .inr ⟨by rw [beq_iff_eq]; exact h, decide_eq_false (fun h2 => hk ⟨h, by omega⟩)⟩
        · exact .inl (by rw [beq_eq_false_iff_ne]; exact h)
      clear hk
      obtain h1 | h1 : st = 1 ∨ st = 2 := by omega
      · subst h1
        cases E
        · cases I
          · rcases hb2 with b62 | ⟨b62, bk⟩
            all_goals
              have HN := Lib.hid (scr_go s.data.toList i 1 k 1 1 (0) R1 R2 (by rw [← Lib.size_eq]; exact hlt) (st_1n k _ f45 hK hE hI) HR.out)
              clear hE hI hO HR
              go_wp2_with (fail)
              refine (HE _).out.mono ?_
              rintro e w2 ⟨rfl, c2⟩
              have B2 := Lib.hid (HBW.out.trans (c2.mono HBW.out.size))
              clear c2
              go_wp2_with (fail)
              refine (HI _).out.mono ?_
              rintro e w3 ⟨rfl, c3⟩
              have B3 := Lib.hid (B2.out.trans (c3.mono B2.out.size))
              clear c3
              go_wp2_with (fail)
              refine (HO _).out.mono ?_
              rintro e w4 ⟨rfl, c4⟩
              have B4 := Lib.hid (B3.out.trans (c4.mono B3.out.size))
              clear c4
              go_wp2
              go_roundw
              case rel => exact ⟨1, 0, i + 1, by go_num, by go_num, by go_num, by omega, fun h => by omega, by omega, by omega, B4.out, HN⟩
              case measure => simp [intOf]; omega
          · rcases hb2 with b62 | ⟨b62, bk⟩
            all_goals
              have hbd := word_len _ _ hI
              rw [List.length_drop, ← Lib.size_eq] at hbd
              simp only [List.length_cons, List.length_nil] at hbd
              have HN := Lib.hid (scr_go s.data.toList i 1 k 8 2 (0) R1 R2 (by rw [← Lib.size_eq]; exact hlt) (st_1w k _ f45 hK hE hI) HR.out)
              clear hE hI hO HR
              go_wp2_with (fail)
              refine (HE _).out.mono ?_
              rintro e w2 ⟨rfl, c2⟩
              have B2 := Lib.hid (HBW.out.trans (c2.mono HBW.out.size))
              clear c2
              go_wp2_with (fail)
              refine (HI _).out.mono ?_
              rintro e w3 ⟨rfl, c3⟩
              have B3 := Lib.hid (B2.out.trans (c3.mono B2.out.size))
              clear c3
              go_wp2_with (fail)
              refine (HO _).out.mono ?_
              rintro e w4 ⟨rfl, c4⟩
              have B4 := Lib.hid (B3.out.trans (c4.mono B3.out.size))
              clear c4
              go_wp2
              go_roundw
              case rel => exact ⟨2, 0, i + 8, by go_num, by go_num, by go_num, by omega, fun h => by omega, by omega, by omega, B4.out, HN⟩
              case measure => simp [intOf]; omega
        · rcases hb2 with b62 | ⟨b62, bk⟩
          all_goals
            have HN := Lib.hid (scr_halt s.data.toList i 1 k R1 R2 (by rw [← Lib.size_eq]; exact hlt) (st_1e k _ f45 hK hE) HR.out)
            clear hE hI hO HR
            go_wp2_with (fail)
            refine (HE _).out.mono ?_
            rintro e w2 ⟨rfl, c2⟩
            have B2 := Lib.hid (HBW.out.trans (c2.mono HBW.out.size))
            clear c2
            go_wp2_with (fail)
            refine (HI _).out.mono ?_
            rintro e w3 ⟨rfl, c3⟩
            have B3 := Lib.hid (B2.out.trans (c3.mono B2.out.size))
            clear c3
            go_wp2_with (fail)
            refine (HO _).out.mono ?_
            rintro e w4 ⟨rfl, c4⟩
            have B4 := Lib.hid (B3.out.trans (c4.mono B3.out.size))
            clear c4
            go_wp2
            go_ret2
            exact ⟨ret_two (by rw [HN.out.1]) (by rw [HN.out.2]; rfl), B4.out⟩
      · subst h1
        cases O
        · rcases hb2 with b62 | ⟨b62, bk⟩
          all_goals
            have HN := Lib.hid (scr_go s.data.toList i 2 k 1 2 (0) R1 R2 (by rw [← Lib.size_eq]; exact hlt) (st_2n k _ f45 hK hO) HR.out)
            clear hE hI hO HR
            go_wp2_with (fail)
            refine (HE _).out.mono ?_
            rintro e w2 ⟨rfl, c2⟩
            have B2 := Lib.hid (HBW.out.trans (c2.mono HBW.out.size))
            clear c2
            go_wp2_with (fail)
            refine (HI _).out.mono ?_
            rintro e w3 ⟨rfl, c3⟩
            have B3 := Lib.hid (B2.out.trans (c3.mono B2.out.size))
            clear c3
            go_wp2_with (fail)
            refine (HO _).out.mono ?_
            rintro e w4 ⟨rfl, c4⟩
            have B4 := Lib.hid (B3.out.trans (c4.mono B3.out.size))
            clear c4
            go_wp2
            go_roundw
            case rel => exact ⟨2, 0, i + 1, by go_num, by go_num, by go_num, by omega, fun h => by omega, by omega, by omega, B4.out, HN⟩
            case measure => simp [intOf]; omega
        · rcases hb2 with b62 | ⟨b62, bk⟩
          all_goals
            have hbd := word_len _ _ hO
            rw [List.length_drop, ← Lib.size_eq] at hbd
            simp only [List.length_cons, List.length_nil] at hbd
            have HN := Lib.hid (scr_go s.data.toList i 2 k 9 1 (0) R1 R2 (by rw [← Lib.size_eq]; exact hlt) (st_2w k _ f45 hK hO) HR.out)
            clear hE hI hO HR
            go_wp2_with (fail)
            refine (HE _).out.mono ?_
            rintro e w2 ⟨rfl, c2⟩
            have B2 := Lib.hid (HBW.out.trans (c2.mono HBW.out.size))
            clear c2
            go_wp2_with (fail)
            refine (HI _).out.mono ?_
            rintro e w3 ⟨rfl, c3⟩
            have B3 := Lib.hid (B2.out.trans (c3.mono B2.out.size))
            clear c3
            go_wp2_with (fail)
            refine (HO _).out.mono ?_
            rintro e w4 ⟨rfl, c4⟩
            have B4 := Lib.hid (B3.out.trans (c4.mono B3.out.size))
            clear c4
            go_wp2
            go_roundw
            case rel => exact ⟨1, 0, i + 9, by go_num, by go_num, by go_num, by omega, fun h => by omega, by omega, by omega, B4.out, HN⟩
            case measure => simp [intOf]; omega
    · have HN := Lib.hid (scr_done s.data.toList i st k R1 R2 (by rw [← Lib.size_eq]; omega) HR.out)
      clear HEE HII HOO HCC
      go_wp2
      go_ret2
      exact ⟨ret_two (by rw [HN.out.1]) (by rw [HN.out.2]), HBW.out⟩
end Go.Proofs.Ythmfjnjjkcaalaa
