/-
  What package ref's Read answers, for every text, place and destination.
-/
import Derived.Test.YtdpgdcbclgdjaaaDoorRefMath
import Derived.Test.YtdpgdcbclgdjaaaDoorNamCode
import Derived.Test.YtdpgdcbclgdjaaaDoorNumRead
namespace Go.Proofs.YtdpgdcbclgdjaaaDoor
open Go.RowKit Go.Lib

theorem here (l : Txt) (j : Nat) (h : j ≤ l.length) : isRef l (j : Int) = isRef (l.drop j) 0 ∧ refN l j = refN (l.drop j) 0 ∧ endN l j = j + endN (l.drop j) 0 ∧ bestL nmRows (winL l (j : Int) 32) = bestL nmRows (l.drop j) := by
  have e : l.take j ++ l.drop j = l := List.take_append_drop j l
  have hl : (l.take j).length = j := by rw [List.length_take]; omega
  have h1 := ref_shift (l.take j) (l.drop j)
  have h2 := end_shift (l.take j) (l.drop j)
  have h3 := win_ahead (l.take j) (l.drop j)
  rw [e, hl] at h1 h2 h3
  exact ⟨h1.1, h1.2, h2, by rw [h3, best_bound]⟩
theorem lowB_38 (c : UInt8) : (lowB c = 38) ↔ c = 38 := by
  have h := lowB_int c
  unfold lowI at h
  rw [← UInt8.toNat_inj, ← UInt8.toNat_inj, show (38 : UInt8).toNat = 38 from rfl]
  split at h <;> omega
theorem beg_amp (s : ByteArray) (k : Nat) : begS s (k : Int) ⟨#[38]⟩ = decide (s.data.toList.getD k 0 = 38) := by
  rw [begS_one s k 38 (by decide), decide_eq_decide]; exact lowB_38 _

set_option maxRecDepth 100000 in
set_option maxHeartbeats 1000000 in
theorem goes_any (s : ByteArray) (k : Nat) (w : World) (hk : k ≤ s.size) :
    Calls Tryd.prog 22 #[.string s, .int .i64 (k : Int)] w fun e w' => e = .returned (.bool (goesB (s.data.toList.drop k))) ∧ w' = w := by
  by_cases h : k < s.size
  · have HG := Lib.hid (show goesB (s.data.toList.drop k) = (((s[k].toNat : Nat) : Int) == 61 || wordI ((s[k].toNat : Nat) : Int)) by
      rw [drop_at s k h, goesB, wordN_int]
      congr 1
      rw [Bool.eq_iff_iff, beq_iff_eq, beq_iff_eq, ← UInt8.toNat_inj, show (61 : UInt8).toNat = 61 from rfl]
      omega)
    rw [HG.out]
    have HW := fun w => Lib.hid (word ((s[k].toNat : Nat) : Int) w (by omega) (by have := s[k].toNat_lt; omega))
    obtain ⟨b, hb⟩ : ∃ b, wordI ((s[k].toNat : Nat) : Int) = b := ⟨_, rfl⟩
    rw [hb] at HW ⊢
    clear hb HG
    by_cases h1 : (((s[k].toNat : Nat) : Int) == 61) = true
    · go_enter Tryd.func22, Tryd.ntmps22
      go_wp2
      go_ret
      simp [h1]
    · rw [Bool.not_eq_true] at h1
      go_enter Tryd.func22, Tryd.ntmps22
      go_wp2_with (go_at_call 42; refine (HW _).out.mono ?_; rintro e w' ⟨rfl, rfl⟩)
      go_ret
      simp [h1]
  · have HG := Lib.hid (show goesB (s.data.toList.drop k) = false by rw [List.drop_eq_nil_of_le (by rw [← Lib.size_eq]; omega)]; rfl)
    rw [HG.out]
    have h2 : decide (s.size ≤ k) = true := decide_eq_true (by omega)
    clear HG
    go_enter Tryd.func22, Tryd.ntmps22
    go_wp2
    go_ret
    trivial

/-- what Read tells of any place -/
def rdT (l : Txt) (a : Int) (attr : Bool) : Txt := if 0 ≤ a ∧ l.getD a.toNat 0 = 38 then refT (l.drop (a.toNat + 1)) attr else []
def rdN (l : Txt) (a : Int) : Int := if 0 ≤ a ∧ l.getD a.toNat 0 = 38 then a + 1 + (refM (l.drop (a.toNat + 1)) : Int) else a
theorem rd_yes (l : Txt) (k : Nat) (attr : Bool) (h : l.getD k 0 = 38) : rdT l (k : Int) attr = refT (l.drop (k + 1)) attr ∧ rdN l (k : Int) = (k : Int) + 1 + (refM (l.drop (k + 1)) : Int) := by
  have e : ((k : Nat) : Int).toNat = k := by omega
  unfold rdT rdN
  rw [e, if_pos ⟨by omega, h⟩, if_pos ⟨by omega, h⟩]
  exact ⟨rfl, rfl⟩
theorem rd_no (l : Txt) (a : Int) (attr : Bool) (h : ¬ (0 ≤ a ∧ l.getD a.toNat 0 = 38)) : rdT l a attr = [] ∧ rdN l a = a := by
  unfold rdT rdN
  rw [if_neg h, if_neg h]
  exact ⟨rfl, rfl⟩

set_option maxRecDepth 100000 in
set_option maxHeartbeats 4000000 in
theorem rd_num (s : ByteArray) (k : Nat) (attr : Bool) (w : World) (hs : s.size ≤ 1099511627776) (h38 : s.data.toList.getD k 0 = 38) (hT : TabAt w) (hr : isRef (s.data.toList.drop (k + 1)) 0 = true) :
    Calls Tryd.prog 10 #[.string s, .int .i64 (k : Int), .bool attr] w fun e w' => e = .returned (.tuple #[.string ⟨(refT (s.data.toList.drop (k + 1)) attr).toArray⟩, .int .i64 ((k : Int) + 1 + (refM (s.data.toList.drop (k + 1)) : Int))]) ∧ Below w.heap.size w w' := by
  have hk : k < s.size := getD_size s k (by rw [h38]; decide)
  have hl : k + 1 ≤ s.data.toList.length := by rw [← Lib.size_eq]; omega
  obtain ⟨e1, e2, e3, -⟩ := here s.data.toList (k + 1) hl
  rw [hr] at e1
  have HB := fun w => Lib.hid (begins s (k : Int) ⟨#[38]⟩ w hs (by decide) (by omega) (by omega))
  rw [beg_amp, h38, show decide ((38 : UInt8) = 38) = true from rfl] at HB
  have HR := fun w h => Lib.hid (read s ((k : Int) + 1) w hs (by omega) (by omega) h)
  have c : ((k + 1 : Nat) : Int) = (k : Int) + 1 := by omega
  have f1 := txtR_yes (k := k + 1) e1
  have f2 := nxtR_yes (k := k + 1) e1
  rw [c] at f1 f2 e1
  rw [f1, f2, e1, e2, e3] at HR
  obtain ⟨A, hA⟩ : ∃ A, fixS (refN (s.data.toList.drop (k + 1)) 0) = A := ⟨_, rfl⟩
  obtain ⟨E, hE⟩ : ∃ E : Int, ((k + 1 + endN (s.data.toList.drop (k + 1)) 0 : Nat) : Int) = E := ⟨_, rfl⟩
  have HA : Hid ((⟨(refT (s.data.toList.drop (k + 1)) attr).toArray⟩ : ByteArray) = A) := Lib.hid (by unfold refT; rw [if_pos hr, ← hA])
  have HN : Hid ((k : Int) + 1 + (refM (s.data.toList.drop (k + 1)) : Int) = E) := Lib.hid (by unfold refM; rw [if_pos hr, ← hE]; omega)
  rw [hA, hE] at HR
  rw [HA.out, HN.out]
  clear hA hE HA HN f1 f2 e1 e2 e3 c hr h38
  have HT := Lib.hid hT
  clear hT
  go_enter Tryd.func10, Tryd.ntmps10
  go_wp2_with (fail)
  refine (HB _).out.mono ?_
  rintro e w1 ⟨rfl, n1, rfl⟩
  go_wp2_with (fail)
  refine (HR _ (HT.out.drawn _)).out.mono ?_
  rintro e w1 ⟨rfl, n2, rfl⟩
  go_wp2
  go_ret2
  exact ⟨rfl, dr_below _ _ _⟩

set_option maxRecDepth 100000 in
set_option maxHeartbeats 4000000 in
theorem rd_just (s : ByteArray) (k : Nat) (attr : Bool) (w : World) (hs : s.size ≤ 1099511627776) (h38 : s.data.toList.getD k 0 = 38) (hT : TabAt w) (hr : isRef (s.data.toList.drop (k + 1)) 0 = false) (hb : bestL nmRows (s.data.toList.drop (k + 1)) = 0) :
    Calls Tryd.prog 10 #[.string s, .int .i64 (k : Int), .bool attr] w fun e w' => e = .returned (.tuple #[.string ⟨(refT (s.data.toList.drop (k + 1)) attr).toArray⟩, .int .i64 ((k : Int) + 1 + (refM (s.data.toList.drop (k + 1)) : Int))]) ∧ Below w.heap.size w w' := by
  have hk : k < s.size := getD_size s k (by rw [h38]; decide)
  have hl : k + 1 ≤ s.data.toList.length := by rw [← Lib.size_eq]; omega
  obtain ⟨e1, -, -, e4⟩ := here s.data.toList (k + 1) hl
  rw [hr] at e1
  rw [hb] at e4
  have HB := fun w => Lib.hid (begins s (k : Int) ⟨#[38]⟩ w hs (by decide) (by omega) (by omega))
  rw [beg_amp, h38, show decide ((38 : UInt8) = 38) = true from rfl] at HB
  have HR := fun w h => Lib.hid (read s ((k : Int) + 1) w hs (by omega) (by omega) h)
  have HL := fun w => Lib.hid (nmLongest_any s ((k : Int) + 1) w (by omega))
  have c : ((k + 1 : Nat) : Int) = (k : Int) + 1 := by omega
  rw [c] at e1 e4
  rw [txtR_no e1, nxtR_no e1, e1] at HR
  rw [e4] at HL
  have HA : Hid ((⟨(refT (s.data.toList.drop (k + 1)) attr).toArray⟩ : ByteArray) = ⟨#[38]⟩) := Lib.hid (by unfold refT; rw [hr, hb]; rfl)
  have HN : Hid ((k : Int) + 1 + (refM (s.data.toList.drop (k + 1)) : Int) = (k : Int) + 1) := Lib.hid (by unfold refM; rw [hr, hb]; simp)
  rw [HA.out, HN.out]
  have z : (s.extract (k + 1) (k + 1)).size = 0 := by rw [ByteArray.size_extract]; omega
  clear HA HN e1 e4 c hr h38 hb
  have HT := Lib.hid hT
  clear hT
  go_enter Tryd.func10, Tryd.ntmps10
  go_wp2_with (fail)
  refine (HB _).out.mono ?_
  rintro e w1 ⟨rfl, n1, rfl⟩
  go_wp2_with (fail)
  refine (HR _ (HT.out.drawn _)).out.mono ?_
  rintro e w1 ⟨rfl, n2, rfl⟩
  go_wp2_with (fail)
  refine (HL _).out.mono ?_
  rintro e w1 ⟨rfl, n3, rfl⟩
  go_wp2
  go_ret2
  exact ⟨rfl, dr_below _ _ _⟩

set_option maxRecDepth 100000 in
set_option maxHeartbeats 4000000 in
theorem rd_name (s : ByteArray) (k : Nat) (attr : Bool) (w : World) (hs : s.size ≤ 1099511627776) (h38 : s.data.toList.getD k 0 = 38) (hT : TabAt w) (hE : ErrAt w) (hr : isRef (s.data.toList.drop (k + 1)) 0 = false) (hb : bestL nmRows (s.data.toList.drop (k + 1)) ≠ 0) :
    Calls Tryd.prog 10 #[.string s, .int .i64 (k : Int), .bool attr] w fun e w' => e = .returned (.tuple #[.string ⟨(refT (s.data.toList.drop (k + 1)) attr).toArray⟩, .int .i64 ((k : Int) + 1 + (refM (s.data.toList.drop (k + 1)) : Int))]) ∧ Below w.heap.size w w' := by
  have hk : k < s.size := getD_size s k (by rw [h38]; decide)
  have hl : k + 1 ≤ s.data.toList.length := by rw [← Lib.size_eq]; omega
  have hat : s[k] = 38 := by rw [← getD_is s k hk]; exact h38
  obtain ⟨e1, -, -, e4⟩ := here s.data.toList (k + 1) hl
  rw [hr] at e1
  have HB := fun w => Lib.hid (begins s (k : Int) ⟨#[38]⟩ w hs (by decide) (by omega) (by omega))
  rw [beg_amp, h38, show decide ((38 : UInt8) = 38) = true from rfl] at HB
  have HR := fun w h => Lib.hid (read s ((k : Int) + 1) w hs (by omega) (by omega) h)
  have HL := fun w => Lib.hid (nmLongest_any s ((k : Int) + 1) w (by omega))
  have c : ((k + 1 : Nat) : Int) = (k : Int) + 1 := by omega
  rw [c] at e1 e4
  rw [txtR_no e1, nxtR_no e1, e1] at HR
  rw [e4] at HL
  have hle := best_le nmRows (s.data.toList.drop (k + 1))
  rw [List.length_drop, ← Lib.size_eq] at hle
  obtain ⟨his, hlen⟩ := best_is _ hb
  have HA : Hid ((⟨(refT (s.data.toList.drop (k + 1)) attr).toArray⟩ : ByteArray) = if keepB (s.data.toList.drop (k + 1)) attr then ⟨(38 :: (s.data.toList.drop (k + 1)).take (bestL nmRows (s.data.toList.drop (k + 1)))).toArray⟩ else ⟨(textL (aOf (nmLook ((s.data.toList.drop (k + 1)).take (bestL nmRows (s.data.toList.drop (k + 1)))))) (bOf (nmLook ((s.data.toList.drop (k + 1)).take (bestL nmRows (s.data.toList.drop (k + 1))))))).toArray⟩) := Lib.hid (by
    unfold refT; rw [hr, if_neg Bool.false_ne_true, if_neg hb]; split <;> rfl)
  have HN : Hid ((k : Int) + 1 + (refM (s.data.toList.drop (k + 1)) : Int) = (k : Int) + 1 + (bestL nmRows (s.data.toList.drop (k + 1)) : Int)) := Lib.hid (by unfold refM; rw [hr]; rfl)
  rw [HN.out]
  obtain ⟨R, hR⟩ : ∃ R : ByteArray, ⟨(refT (s.data.toList.drop (k + 1)) attr).toArray⟩ = R := ⟨_, rfl⟩
  rw [hR] at HA ⊢
  unfold keepB at HA
  obtain ⟨b, hB⟩ : ∃ b, bestL nmRows (s.data.toList.drop (k + 1)) = b := ⟨_, rfl⟩
  rw [hB] at HL HA his hlen hle hb ⊢
  have hlt : k + 1 + b ≤ s.size := by omega
  have hpos : 0 < b := Nat.pos_of_ne_zero hb
  have hq : (s.extract (k + 1) (k + 1 + b)).data.toList = (s.data.toList.drop (k + 1)).take b := by
    rw [extract_data]; congr 1; omega
  have hqs : (s.extract (k + 1) (k + 1 + b)).size = b := by rw [ByteArray.size_extract]; omega
  have hq2 : s.extract k (k + 1 + b) = ⟨(38 :: (s.data.toList.drop (k + 1)).take b).toArray⟩ := str_ext (by
    rw [extract_data, List.toList_toArray, drop_at s k hk, hat, show k + 1 + b - k = b + 1 by omega]; rfl)
  rw [← hq2, ← hq, List.drop_drop] at HA
  rw [← hq] at his
  have HS := fun w => Lib.hid (short_any (s.extract (k + 1) (k + 1 + b)) w (by omega))
  have HV := fun w h => Lib.hid (value_any (s.extract (k + 1) (k + 1 + b)) w h)
  have HG := fun w => Lib.hid (goes_any s (k + 1 + b) w hlt)
  have HX := fun w => Lib.hid (text_any (aOf (nmLook (s.extract (k + 1) (k + 1 + b)).data.toList)) (bOf (nmLook (s.extract (k + 1) (k + 1 + b)).data.toList)) w (by have := aOf_lt (s.extract (k + 1) (k + 1 + b)).data.toList; omega) (by have := bOf_lt (s.extract (k + 1) (k + 1 + b)).data.toList; omega))
  have HC := fun w => Lib.hid (clone_any (s.extract k (k + 1 + b)) w (by rw [ByteArray.size_extract]; omega))
  rw [his, Bool.true_and] at HS
  rw [his] at HV
  have c2 : ((k + 1 + b : Nat) : Int) = (k : Int) + 1 + (b : Int) := by omega
  rw [c2] at HG
  obtain ⟨T, hT'⟩ : ∃ T : ByteArray, ⟨(textL (aOf (nmLook (s.extract (k + 1) (k + 1 + b)).data.toList)) (bOf (nmLook (s.extract (k + 1) (k + 1 + b)).data.toList))).toArray⟩ = T := ⟨_, rfl⟩
  obtain ⟨X, hX⟩ : ∃ X, fl (aOf (nmLook (s.extract (k + 1) (k + 1 + b)).data.toList)) = X := ⟨_, rfl⟩
  obtain ⟨Y, hY⟩ : ∃ Y, fl (bOf (nmLook (s.extract (k + 1) (k + 1 + b)).data.toList)) = Y := ⟨_, rfl⟩
  rw [hX, hY] at HV HX
  rw [hT'] at HX HA
  obtain ⟨h, hh⟩ : ∃ h, hasSuffix (s.extract (k + 1) (k + 1 + b)).data.toList [59] = h := ⟨_, rfl⟩
  obtain ⟨g, hg⟩ : ∃ g, goesB (s.data.toList.drop (k + 1 + b)) = g := ⟨_, rfl⟩
  rw [hh] at HS HA
  rw [hg] at HG HA
  have e0 : (s.extract (k + 1) (k + 1 + b)).toList.isEmpty = false := by
    rw [ByteArray.toList_eq, List.isEmpty_eq_false_iff, ← List.length_pos_iff, ← Lib.size_eq, hqs]; exact hpos
  have HT := Lib.hid hT
  have HE := Lib.hid hE
  clear hT hE hT' hX hY hh hg c c2 his hlen hle hb hB hR HN e1 e4 hq hq2 hr hat h38
  cases attr
  · have HR0 : Hid (R = T) := Lib.hid (by rw [HA.out]; rfl)
    clear HA
    go_enter Tryd.func10, Tryd.ntmps10
    go_wp2_with (fail)
    refine (HB _).out.mono ?_
    rintro e w1 ⟨rfl, n1, rfl⟩
    go_wp2_with (fail)
    refine (HR _ (HT.out.drawn _)).out.mono ?_
    rintro e w1 ⟨rfl, n2, rfl⟩
    go_wp2_with (fail)
    refine (HL _).out.mono ?_
    rintro e w1 ⟨rfl, n3, rfl⟩
    go_wp2_with (fail)
    have b1 := dr_below w.heap.size w (n1 + n2 + n3)
    refine (HV _ (HE.out.below b1)).out.mono ?_
    rintro e w2 ⟨rfl, b2⟩
    go_wp2_with (fail)
    refine (HX _).out.mono ?_
    rintro e w3 ⟨rfl, rfl⟩
    go_wp2
    go_ret2
    rw [HR0.out]
    exact ⟨rfl, b1.trans (b2.mono b1.size)⟩
  · cases h
    · cases g
      · have HR0 : Hid (R = T) := Lib.hid (by rw [HA.out]; rfl)
        clear HA
        go_enter Tryd.func10, Tryd.ntmps10
        go_wp2_with (fail)
        refine (HB _).out.mono ?_
        rintro e w1 ⟨rfl, n1, rfl⟩
        go_wp2_with (fail)
        refine (HR _ (HT.out.drawn _)).out.mono ?_
        rintro e w1 ⟨rfl, n2, rfl⟩
        go_wp2_with (fail)
        refine (HL _).out.mono ?_
        rintro e w1 ⟨rfl, n3, rfl⟩
        have b1 := dr_below w.heap.size w (n1 + n2 + n3)
        go_wp2_with (first | (go_at_call 21; refine (HS _).out.mono ?_; rintro e w2 ⟨rfl, b2⟩) | (go_at_call 22; refine (HG _).out.mono ?_; rintro e w' ⟨rfl, rfl⟩))
        have b3 := b1.trans (b2.mono b1.size)
        refine (HV _ (HE.out.below b3)).out.mono ?_
        rintro e w4 ⟨rfl, b4⟩
        go_wp2_with (fail)
        refine (HX _).out.mono ?_
        rintro e w5 ⟨rfl, rfl⟩
        go_wp2
        go_ret2
        rw [HR0.out]
        exact ⟨rfl, b3.trans (b4.mono b3.size)⟩
      · have HR0 : Hid (R = s.extract k (k + 1 + b)) := Lib.hid (by rw [HA.out]; rfl)
        clear HA
        go_enter Tryd.func10, Tryd.ntmps10
        go_wp2_with (fail)
        refine (HB _).out.mono ?_
        rintro e w1 ⟨rfl, n1, rfl⟩
        go_wp2_with (fail)
        refine (HR _ (HT.out.drawn _)).out.mono ?_
        rintro e w1 ⟨rfl, n2, rfl⟩
        go_wp2_with (fail)
        refine (HL _).out.mono ?_
        rintro e w1 ⟨rfl, n3, rfl⟩
        have b1 := dr_below w.heap.size w (n1 + n2 + n3)
        go_wp2_with (first | (go_at_call 21; refine (HS _).out.mono ?_; rintro e w2 ⟨rfl, b2⟩) | (go_at_call 22; refine (HG _).out.mono ?_; rintro e w' ⟨rfl, rfl⟩))
        have b3 := b1.trans (b2.mono b1.size)
        refine (HC _).out.mono ?_
        rintro e w4 ⟨rfl, b4⟩
        go_wp2
        go_ret2
        rw [HR0.out]
        exact ⟨rfl, b3.trans (b4.mono b3.size)⟩
    · have HR0 : Hid (R = T) := Lib.hid (by rw [HA.out]; cases g <;> rfl)
      clear HA
      go_enter Tryd.func10, Tryd.ntmps10
      go_wp2_with (fail)
      refine (HB _).out.mono ?_
      rintro e w1 ⟨rfl, n1, rfl⟩
      go_wp2_with (fail)
      refine (HR _ (HT.out.drawn _)).out.mono ?_
      rintro e w1 ⟨rfl, n2, rfl⟩
      go_wp2_with (fail)
      refine (HL _).out.mono ?_
      rintro e w1 ⟨rfl, n3, rfl⟩
      have b1 := dr_below w.heap.size w (n1 + n2 + n3)
      go_wp2_with (go_at_call 21; refine (HS _).out.mono ?_; rintro e w2 ⟨rfl, b2⟩)
      have b3 := b1.trans (b2.mono b1.size)
      refine (HV _ (HE.out.below b3)).out.mono ?_
      rintro e w4 ⟨rfl, b4⟩
      go_wp2_with (fail)
      refine (HX _).out.mono ?_
      rintro e w5 ⟨rfl, rfl⟩
      go_wp2
      go_ret2
      rw [HR0.out]
      exact ⟨rfl, b3.trans (b4.mono b3.size)⟩

/-- P7.1 -/
theorem rd_any (s : ByteArray) (a : Int) (attr : Bool) (w : World) (hs : s.size ≤ 1099511627776) (ha : -9223372036854775808 ≤ a ∧ a ≤ 9223372036854775807) (hT : TabAt w) (hE : ErrAt w) :
    Calls Tryd.prog 10 #[.string s, .int .i64 a, .bool attr] w fun e w' => e = .returned (.tuple #[.string ⟨(rdT s.data.toList a attr).toArray⟩, .int .i64 (rdN s.data.toList a)]) ∧ Below w.heap.size w w' := by
  by_cases h : 0 ≤ a ∧ s.data.toList.getD a.toNat 0 = 38
  · obtain ⟨h0, h38⟩ := h
    obtain ⟨k, rfl⟩ : ∃ k : Nat, a = k := ⟨a.toNat, by omega⟩
    rw [show ((k : Nat) : Int).toNat = k by omega] at h38
    obtain ⟨e1, e2⟩ := rd_yes s.data.toList k attr h38
    rw [e1, e2]
    by_cases hr : isRef (s.data.toList.drop (k + 1)) 0 = true
    · exact rd_num s k attr w hs h38 hT hr
    · rw [Bool.not_eq_true] at hr
      by_cases hb : bestL nmRows (s.data.toList.drop (k + 1)) = 0
      · exact rd_just s k attr w hs h38 hT hr hb
      · exact rd_name s k attr w hs h38 hT hE hr hb
  · obtain ⟨e1, e2⟩ := rd_no s.data.toList a attr h
    rw [e1, e2]
    have HB := fun w => Lib.hid (show Calls Tryd.prog 18 #[.string s, .int .i64 a, .string ⟨#[38]⟩] w fun e w' => e = .returned (.bool false) ∧ ∃ n, w' = w.drewN n from by
      have := begins s a ⟨#[38]⟩ w hs (by decide) ha.1 ha.2
      rwa [show begS s a ⟨#[38]⟩ = false from by
        by_cases h0 : a < 0
        · exact begS_neg s a _ h0
        · obtain ⟨k, rfl⟩ : ∃ k : Nat, a = k := ⟨a.toNat, by omega⟩
          rw [beg_amp]
          exact decide_eq_false fun h38 => h ⟨by omega, by rw [show ((k : Nat) : Int).toNat = k by omega]; exact h38⟩] at this)
    clear h e1 e2
    go_enter Tryd.func10, Tryd.ntmps10
    go_wp2_with (fail)
    refine (HB _).out.mono ?_
    rintro e w1 ⟨rfl, n1, rfl⟩
    go_wp2
    go_ret2
    exact ⟨rfl, dr_below _ _ _⟩
end Go.Proofs.YtdpgdcbclgdjaaaDoor
