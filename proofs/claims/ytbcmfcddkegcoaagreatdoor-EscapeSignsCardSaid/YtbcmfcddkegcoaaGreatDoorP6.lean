/-
  Texts laid together: RefMath, RefCode, RefDoc, RefDecD, RefDec, RefLaid.
-/
import Derived.Test.YtbcmfcddkegcoaaGreatDoorP5
import Derived.Test.YtbcmfcddkegcoaaGreatDoorP2
import Derived.KernelRfl
import Derived.Test.YtbcmfcddkegcoaaGreatDoorP1
import Derived.Test.YtbcmfcddkegcoaaGreatDoorP4
import Derived.Test.YtbcmfcddkegcoaaGreatDoorP3
import Derived.Shelf.Strings.MapGrows
import Derived.Test.YtbcmfcddkegcoaaGreatDoorTie
import Derived.Test.YtbcmfcddkegcoaaGreatDoorMaxLen
import Derived.ProofKit
import Derived.OpenShut
import Derived.Deep.DeepHandedRow
import Derived.LaidMore
import Derived.LaidLaws
import Derived.RowKitTokens
import Derived.Lib.LaidTab
/-! What an ampersand means, by what stands behind it, and what a text is with all references read: plain mathematics. -/
namespace Go.Proofs.YtbcmfcddkegcoaaGreatDoor
open Go.RowKit Go.Lib

/-- a letter or a digit -/
def wordN (c : UInt8) : Bool := Nat.ble 48 c.toNat && Nat.ble c.toNat 57 || (Nat.ble 65 c.toNat && Nat.ble c.toNat 90 || Nat.ble 97 c.toNat && Nat.ble c.toNat 122)
theorem wordN_int (c : UInt8) : wordI (c.toNat : Int) = wordN c := by
  unfold wordI letterI digitI wordN
  rw [Bool.eq_iff_iff]
  simp only [Bool.or_eq_true, Bool.and_eq_true, decide_eq_true_eq, Nat.ble_eq]
  omega
/-- a key: letters and digits, and a semicolon, which isn't the first byte -/
def keyB : Txt → Bool
  | [] => false
  | c :: t => wordN c && t.all fun x => wordN x || x == 59
set_option maxRecDepth 1000000 in
theorem key_all : nmRows.all (fun r => keyB r.1) = true := by kernel_rfl
theorem key_form (r : Ln) (hr : r ∈ nmRows) : ∃ c t, r.1 = c :: t ∧ wordN c = true ∧ ∀ x ∈ t, wordN x = true ∨ x = 59 := by
  have h := List.all_eq_true.1 key_all r hr
  cases e : r.1 with
  | nil => rw [e] at h; exact absurd h (by decide)
  | cons c t =>
    rw [e, keyB, Bool.and_eq_true, List.all_eq_true] at h
    refine ⟨c, t, rfl, h.1, fun x hx => ?_⟩
    have := h.2 x hx
    rw [Bool.or_eq_true, beq_iff_eq] at this
    exact this
theorem key_byte (r : Ln) (hr : r ∈ nmRows) (x : UInt8) (hx : x ∈ r.1) : wordN x = true ∨ x = 59 := by
  obtain ⟨c, t, e, h1, h2⟩ := key_form r hr
  rw [e] at hx
  rcases List.mem_cons.1 hx with rfl | hx
  · exact .inl h1
  · exact h2 x hx

/-- what stands ahead of a place plays no part for a reference by a number -/
theorem getD_shift (p z : Txt) (i : Nat) : (p ++ z).getD (p.length + i) 0 = z.getD i 0 := by
  rw [List.getD_eq_getElem?_getD, List.getElem?_append_right (by omega), List.getD_eq_getElem?_getD]
  congr 2; omega
theorem isX_shift (p z : Txt) (i : Nat) : isX (p ++ z) (p.length + i) = isX z i := by
  unfold isX; rw [getD_shift]
theorem from_shift (p z : Txt) : fromN (p ++ z) p.length = p.length + fromN z 0 := by
  unfold fromN
  rw [isX_shift p z 1]
  split <;> omega
theorem digsAt_shift (p z : Txt) : digsAt (p ++ z) p.length = digsAt z 0 := by
  unfold digsAt
  rw [isX_shift p z 1, from_shift, ← List.drop_drop, List.drop_left]
theorem end_shift (p z : Txt) : endN (p ++ z) p.length = p.length + endN z 0 := by
  rw [endN_eq, endN_eq, digsAt_shift, from_shift, Nat.add_assoc, getD_shift]
  split <;> omega
theorem ref_shift (p z : Txt) : isRef (p ++ z) (p.length : Int) = isRef z 0 ∧ refN (p ++ z) p.length = refN z 0 := by
  constructor
  · unfold isRef
    rw [show ((p.length : Nat) : Int).toNat = p.length + 0 by omega, getD_shift, Nat.add_zero, digsAt_shift, show (0 : Int).toNat = 0 from rfl]
    exact decide_eq_decide.2 ⟨fun h => ⟨by omega, h.2⟩, fun h => ⟨by omega, h.2⟩⟩
  · unfold refN
    rw [isX_shift p z 1, digsAt_shift]

/-- P7.1, by what stands behind the ampersand: whether what is there makes a short name stay; how many bytes are read; what is told -/
def goesB : Txt → Bool
  | [] => false
  | c :: _ => c == 61 || wordN c
noncomputable def keepB (z : Txt) (attr : Bool) : Bool := attr && !hasSuffix (z.take (bestL nmRows z)) [59] && goesB (z.drop (bestL nmRows z))
noncomputable def refM (z : Txt) : Nat := if isRef z 0 then endN z 0 else bestL nmRows z
noncomputable def refT (z : Txt) (attr : Bool) : Txt :=
  if isRef z 0 then (fixS (refN z 0)).data.toList
  else if bestL nmRows z = 0 then [38]
  else if keepB z attr then 38 :: z.take (bestL nmRows z)
  else textL (aOf (nmLook (z.take (bestL nmRows z)))) (bOf (nmLook (z.take (bestL nmRows z))))

theorem end_bounds (z : Txt) (h : isRef z 0 = true) : 2 ≤ endN z 0 ∧ endN z 0 ≤ z.length := by
  have h1 := ref_stop ⟨z.toArray⟩ 0 (by rw [List.toList_toArray]; exact h)
  have hs : (ByteArray.mk z.toArray).size = z.length := by rw [Lib.size_eq, List.toList_toArray]
  obtain ⟨a, b, -⟩ := h1
  rw [hs] at b
  exact ⟨a, b⟩
theorem refM_le (z : Txt) : refM z ≤ z.length := by
  unfold refM
  by_cases h : isRef z 0 = true
  · rw [if_pos h]; exact (end_bounds z h).2
  · rw [if_neg h]; exact best_le _ _
/-- the longest name is one -/
theorem best_is (z : Txt) (h : bestL nmRows z ≠ 0) : (nmLook (z.take (bestL nmRows z))).isSome = true ∧ (z.take (bestL nmRows z)).length = bestL nmRows z := by
  refine ⟨?_, by rw [List.length_take]; exact Nat.min_eq_left (best_le _ _)⟩
  rcases best_mem nmRows z with h0 | ⟨r, hr, hp, e⟩
  · exact absurd h0 h
  · rw [e, ← List.prefix_iff_eq_take.1 hp, look_of hr]; rfl
theorem refT_len (z : Txt) (attr : Bool) : 1 ≤ (refT z attr).length ∧ (refT z attr).length ≤ 3 * (refM z + 1) := by
  unfold refT refM
  by_cases h : isRef z 0 = true
  · rw [if_pos h, if_pos h]
    have h1 := fixS_len (refN z 0)
    rw [Lib.size_eq] at h1
    have h2 := end_bounds z h
    omega
  · rw [if_neg h, if_neg h]
    by_cases h0 : bestL nmRows z = 0
    · rw [if_pos h0]; show 1 ≤ 1 ∧ 1 ≤ _; omega
    · rw [if_neg h0]
      have h1 := best_is z h0
      by_cases hk : keepB z attr = true
      · rw [if_pos hk, List.length_cons, h1.2]; omega
      · rw [if_neg hk]
        have h2 := text_len _ h1.1
        rw [h1.2] at h2
        omega

/-- P7.2 -/
noncomputable def ddR (attr : Bool) : Nat → Txt → Txt
  | 0, _ => []
  | _, [] => []
  | f + 1, c :: z => if c = 38 then refT z attr ++ ddR attr f (z.drop (refM z)) else c :: ddR attr f z
noncomputable def ddL (attr : Bool) (l : Txt) : Txt := ddR attr l.length l
theorem dd_fuel (attr : Bool) : ∀ (f g : Nat) (l : Txt), l.length ≤ f → l.length ≤ g → ddR attr f l = ddR attr g l
  | 0, 0, _, _, _ => rfl
  | 0, g + 1, [], _, _ => rfl
  | f + 1, 0, [], _, _ => rfl
  | f + 1, g + 1, [], _, _ => rfl
  | 0, _, c :: z, h, _ => absurd h (by simp)
  | _, 0, c :: z, _, h => absurd h (by simp)
  | f + 1, g + 1, c :: z, h1, h2 => by
    rw [List.length_cons] at h1 h2
    rw [ddR, ddR, dd_fuel attr f g z (by omega) (by omega), dd_fuel attr f g (z.drop (refM z)) (by rw [List.length_drop]; omega) (by rw [List.length_drop]; omega)]
theorem dd_nil (attr : Bool) : ddL attr [] = [] := rfl
theorem dd_plain (attr : Bool) (c : UInt8) (z : Txt) (h : c ≠ 38) : ddL attr (c :: z) = c :: ddL attr z := by
  unfold ddL
  rw [List.length_cons, ddR, if_neg h]
theorem dd_amp (attr : Bool) (z : Txt) : ddL attr (38 :: z) = refT z attr ++ ddL attr (z.drop (refM z)) := by
  unfold ddL
  rw [List.length_cons, ddR, if_pos rfl, dd_fuel attr z.length (z.drop (refM z)).length _ (by rw [List.length_drop]; omega) (Nat.le_refl _)]
theorem dd_ahead (attr : Bool) (z : Txt) : ∀ p : Txt, 38 ∉ p → ddL attr (p ++ z) = p ++ ddL attr z
  | [], _ => rfl
  | c :: p, h => by
    rw [List.mem_cons, not_or] at h
    rw [List.cons_append, dd_plain attr c _ (fun e => h.1 e.symm), dd_ahead attr z p h.2]; rfl
/-- P7.3: what has no ampersand stays -/
theorem dd_stays (attr : Bool) (p : Txt) (h : 38 ∉ p) : ddL attr p = p := by
  have := dd_ahead attr [] p h
  rwa [List.append_nil, dd_nil, List.append_nil] at this
/-- P7.3: no longer than three times -/
theorem dd_len (attr : Bool) : ∀ (n : Nat) (l : Txt), l.length ≤ n → (ddL attr l).length ≤ 3 * l.length
  | _, [], _ => by rw [dd_nil]; exact Nat.zero_le _
  | 0, c :: z, h => absurd h (by simp)
  | n + 1, c :: z, h => by
    rw [List.length_cons] at h
    by_cases hc : c = 38
    · subst hc
      have ih := dd_len attr n (z.drop (refM z)) (by rw [List.length_drop]; omega)
      have h1 := (refT_len z attr).2
      have h2 := refM_le z
      rw [List.length_drop] at ih
      rw [dd_amp, List.length_append, List.length_cons]
      omega
    · have ih := dd_len attr n z (by omega)
      rw [dd_plain attr c z hc, List.length_cons, List.length_cons]
      omega
/-- an ampersand written out -/
theorem amp_look : aOf (nmLook [97, 109, 112, 59]) = 38 ∧ bOf (nmLook [97, 109, 112, 59]) = 0 ∧ (nmLook [97, 109, 112, 59]).isSome = true := ⟨by kernel_rfl, by kernel_rfl, by kernel_rfl⟩
theorem amp_text : textL 38 0 = [38] := by decide
theorem amp_read (z : Txt) (attr : Bool) : refM ([97, 109, 112, 59] ++ z) = 4 ∧ refT ([97, 109, 112, 59] ++ z) attr = [38] := by
  have h1 : isRef ([97, 109, 112, 59] ++ z) 0 = false := by
    unfold isRef
    rw [decide_eq_false_iff_not]
    rintro ⟨-, h, -⟩
    exact absurd (show (97 : UInt8) = 35 from h) (by decide)
  have h2 : bestL nmRows ([97, 109, 112, 59] ++ z) = 4 := best_semi [97, 109, 112, 59] z amp_look.2.2 (by decide)
  have h3 : keepB ([97, 109, 112, 59] ++ z) attr = false := by
    unfold keepB
    rw [h2, show ([97, 109, 112, 59] ++ z : Txt).take 4 = [97, 109, 112, 59] from rfl, show hasSuffix [97, 109, 112, 59] [59] = true by decide, Bool.not_true, Bool.and_false, Bool.false_and]
  unfold refM refT
  rw [h1, h2, h3, show ([97, 109, 112, 59] ++ z : Txt).take 4 = [97, 109, 112, 59] from rfl, amp_look.1, amp_look.2.1, amp_text]
  exact ⟨rfl, rfl⟩
/-- names: how far, and what is told -/
theorem key_ref (q : Txt) (z : Txt) (h : (nmLook q).isSome = true) : isRef (q ++ z) 0 = false := by
  obtain ⟨r, hr⟩ := Option.isSome_iff_exists.1 h
  obtain ⟨c, t, e, hw, -⟩ := key_form _ (look_row hr)
  simp only at e
  subst e
  unfold isRef
  rw [decide_eq_false_iff_not]
  rintro ⟨-, h35, -⟩
  have : c = 35 := h35
  subst this
  exact absurd hw (by decide)
theorem name_ends (q z : Txt) (attr : Bool) (h : (nmLook q).isSome = true) (hb : bestL nmRows (q ++ z) = q.length) :
    refM (q ++ z) = q.length ∧ refT (q ++ z) attr = if attr && !hasSuffix q [59] && goesB z then 38 :: q else textL (aOf (nmLook q)) (bOf (nmLook q)) := by
  have hr := key_ref q z h
  have hne : q.length ≠ 0 := by
    obtain ⟨r, hr⟩ := Option.isSome_iff_exists.1 h
    have := (nm_row _ (look_row hr)).ne
    exact fun e => this (List.length_eq_zero_iff.1 e)
  unfold refM refT keepB
  rw [hr, hb, List.take_left, List.drop_left, if_neg hne]
  exact ⟨rfl, rfl⟩
theorem name_semi (q z : Txt) (attr : Bool) (h : (nmLook q).isSome = true) (h59 : hasSuffix q [59] = true) :
    refM (q ++ z) = q.length ∧ refT (q ++ z) attr = textL (aOf (nmLook q)) (bOf (nmLook q)) := by
  have h1 := name_ends q z attr h (best_semi q z h h59)
  rw [h59, Bool.not_true, Bool.and_false, Bool.false_and] at h1
  exact h1
/-- numbers -/
theorem num_ends (D tail : Txt) (attr : Bool) (hD : ∀ c ∈ D, isDig 10 c = true) (hne : D ≠ []) (ht : tail = [] ∨ ∃ c t, tail = c :: t ∧ isDig 10 c = false) :
    refM (35 :: (D ++ tail)) = (if tail.getD 0 0 = 59 then D.length + 2 else D.length + 1) ∧ refT (35 :: (D ++ tail)) attr = (fixS (valD 10 D)).data.toList := by
  obtain ⟨h1, h2, h3⟩ := ref_ten D tail hD hne ht
  have h4 := txtR_yes (k := 0) h3
  have h5 := nxtR_yes (k := 0) h3
  rw [show ((0 : Nat) : Int) = 0 from rfl] at h4 h5
  rw [h1] at h4
  rw [h2] at h5
  unfold refM refT
  rw [if_pos h3, if_pos h3, ← h4]
  refine ⟨?_, rfl⟩
  split at h5
  · rename_i e; rw [if_pos e]; omega
  · rename_i e; rw [if_neg e]; omega
end Go.Proofs.YtbcmfcddkegcoaaGreatDoor

/-! What package ref's Read answers, for every text, place and destination. -/
namespace Go.Proofs.YtbcmfcddkegcoaaGreatDoor
open Go.RowKit Go.Lib

theorem here (l : Txt) (j : Nat) (h : j ≤ l.length) : isRef l (j : Int) = isRef (l.drop j) 0 ∧ refN l j = refN (l.drop j) 0 ∧ endN l j = j + endN (l.drop j) 0 ∧ bestL nmRows (winL l (j : Int) 32) = bestL nmRows (l.drop j) := by
  have e : l.take j ++ l.drop j = l := List.take_append_drop j l
  have hl : (l.take j).length = j := by rw [List.length_take]; omega
  have h1 := ref_shift (l.take j) (l.drop j)
  have h2 := end_shift (l.take j) (l.drop j)
  have h3 := win_ahead (l.take j) (l.drop j)
  rw [e, hl] at h1 h2 h3
  exact ⟨h1.1, h1.2, h2, by rw [h3, best_bound]⟩
theorem lowB_38 (c : UInt8) : (lowB c = 38) ↔ c = 38 := by
  have h := lowB_int c
  unfold lowI at h
  rw [← UInt8.toNat_inj, ← UInt8.toNat_inj, show (38 : UInt8).toNat = 38 from rfl]
  split at h <;> omega
theorem beg_amp (s : ByteArray) (k : Nat) : begS s (k : Int) ⟨#[38]⟩ = decide (s.data.toList.getD k 0 = 38) := by
  rw [begS_one s k 38 (by decide), decide_eq_decide]; exact lowB_38 _

set_option maxRecDepth 100000 in
set_option maxHeartbeats 1000000 in
theorem goes_any (s : ByteArray) (k : Nat) (w : World) (hk : k ≤ s.size) :
    Calls Tryz.prog 146 #[.string s, .int .i64 (k : Int)] w fun e w' => e = .returned (.bool (goesB (s.data.toList.drop k))) ∧ w' = w := by
  by_cases h : k < s.size
  · have HG := Lib.hid (show goesB (s.data.toList.drop k) = (((s[k].toNat : Nat) : Int) == 61 || wordI ((s[k].toNat : Nat) : Int)) by
      rw [drop_at s k h, goesB, wordN_int]
      congr 1
      rw [Bool.eq_iff_iff, beq_iff_eq, beq_iff_eq, ← UInt8.toNat_inj, show (61 : UInt8).toNat = 61 from rfl]
      omega)
    rw [HG.out]
    have HW := fun w => Lib.hid (word ((s[k].toNat : Nat) : Int) w (by omega) (by have := s[k].toNat_lt; omega))
    obtain ⟨b, hb⟩ : ∃ b, wordI ((s[k].toNat : Nat) : Int) = b := ⟨_, rfl⟩
    rw [hb] at HW ⊢
    clear hb HG
    by_cases h1 : (((s[k].toNat : Nat) : Int) == 61) = true
    · go_enter Tryz.func146, Tryz.ntmps146
      go_wp2
      go_ret
      simp [h1]
    · rw [Bool.not_eq_true] at h1
      go_enter Tryz.func146, Tryz.ntmps146
      go_wp2_with (go_at_call 163; refine (HW _).out.mono ?_; rintro e w' ⟨rfl, rfl⟩)
      go_ret
      simp [h1]
  · have HG := Lib.hid (show goesB (s.data.toList.drop k) = false by rw [List.drop_eq_nil_of_le (by rw [← Lib.size_eq]; omega)]; rfl)
    rw [HG.out]
    have h2 : decide (s.size ≤ k) = true := decide_eq_true (by omega)
    clear HG
    go_enter Tryz.func146, Tryz.ntmps146
    go_wp2
    go_ret
    trivial

/-- what Read tells of any place -/
noncomputable def rdT (l : Txt) (a : Int) (attr : Bool) : Txt := if 0 ≤ a ∧ l.getD a.toNat 0 = 38 then refT (l.drop (a.toNat + 1)) attr else []
noncomputable def rdN (l : Txt) (a : Int) : Int := if 0 ≤ a ∧ l.getD a.toNat 0 = 38 then a + 1 + (refM (l.drop (a.toNat + 1)) : Int) else a
theorem rd_yes (l : Txt) (k : Nat) (attr : Bool) (h : l.getD k 0 = 38) : rdT l (k : Int) attr = refT (l.drop (k + 1)) attr ∧ rdN l (k : Int) = (k : Int) + 1 + (refM (l.drop (k + 1)) : Int) := by
  have e : ((k : Nat) : Int).toNat = k := by omega
  unfold rdT rdN
  rw [e, if_pos ⟨by omega, h⟩, if_pos ⟨by omega, h⟩]
  exact ⟨rfl, rfl⟩
theorem rd_no (l : Txt) (a : Int) (attr : Bool) (h : ¬ (0 ≤ a ∧ l.getD a.toNat 0 = 38)) : rdT l a attr = [] ∧ rdN l a = a := by
  unfold rdT rdN
  rw [if_neg h, if_neg h]
  exact ⟨rfl, rfl⟩

set_option maxRecDepth 100000 in
set_option maxHeartbeats 4000000 in
theorem rd_num (s : ByteArray) (k : Nat) (attr : Bool) (w : World) (hs : s.size ≤ 1099511627776) (h38 : s.data.toList.getD k 0 = 38) (hT : TabAt w) (hr : isRef (s.data.toList.drop (k + 1)) 0 = true) :
    Calls Tryz.prog 131 #[.string s, .int .i64 (k : Int), .bool attr] w fun e w' => e = .returned (.tuple #[.string ⟨(refT (s.data.toList.drop (k + 1)) attr).toArray⟩, .int .i64 ((k : Int) + 1 + (refM (s.data.toList.drop (k + 1)) : Int))]) ∧ Below w.heap.size w w' := by
  have hk : k < s.size := getD_size s k (by rw [h38]; decide)
  have hl : k + 1 ≤ s.data.toList.length := by rw [← Lib.size_eq]; omega
  obtain ⟨e1, e2, e3, -⟩ := here s.data.toList (k + 1) hl
  rw [hr] at e1
  have HB := fun w => Lib.hid (begins s (k : Int) ⟨#[38]⟩ w hs (by decide) (by omega) (by omega))
  rw [beg_amp, h38, show decide ((38 : UInt8) = 38) = true from rfl] at HB
  have HR := fun w h => Lib.hid (read s ((k : Int) + 1) w hs (by omega) (by omega) h)
  have c : ((k + 1 : Nat) : Int) = (k : Int) + 1 := by omega
  have f1 := txtR_yes (k := k + 1) e1
  have f2 := nxtR_yes (k := k + 1) e1
  rw [c] at f1 f2 e1
  rw [f1, f2, e1, e2, e3] at HR
  obtain ⟨A, hA⟩ : ∃ A, fixS (refN (s.data.toList.drop (k + 1)) 0) = A := ⟨_, rfl⟩
  obtain ⟨E, hE⟩ : ∃ E : Int, ((k + 1 + endN (s.data.toList.drop (k + 1)) 0 : Nat) : Int) = E := ⟨_, rfl⟩
  have HA : Hid ((⟨(refT (s.data.toList.drop (k + 1)) attr).toArray⟩ : ByteArray) = A) := Lib.hid (by unfold refT; rw [if_pos hr, ← hA])
  have HN : Hid ((k : Int) + 1 + (refM (s.data.toList.drop (k + 1)) : Int) = E) := Lib.hid (by unfold refM; rw [if_pos hr, ← hE]; omega)
  rw [hA, hE] at HR
  rw [HA.out, HN.out]
  clear hA hE HA HN f1 f2 e1 e2 e3 c hr h38
  have HT := Lib.hid hT
  clear hT
  go_enter Tryz.func131, Tryz.ntmps131
  go_wp2_with (fail)
  refine (HB _).out.mono ?_
  rintro e w1 ⟨rfl, n1, rfl⟩
  go_wp2_with (fail)
  refine (HR _ (HT.out.drawn _)).out.mono ?_
  rintro e w1 ⟨rfl, n2, rfl⟩
  go_wp2
  go_ret2
  exact ⟨rfl, dr_below _ _ _⟩

set_option maxRecDepth 100000 in
set_option maxHeartbeats 4000000 in
theorem rd_just (s : ByteArray) (k : Nat) (attr : Bool) (w : World) (hs : s.size ≤ 1099511627776) (h38 : s.data.toList.getD k 0 = 38) (hT : TabAt w) (hr : isRef (s.data.toList.drop (k + 1)) 0 = false) (hb : bestL nmRows (s.data.toList.drop (k + 1)) = 0) :
    Calls Tryz.prog 131 #[.string s, .int .i64 (k : Int), .bool attr] w fun e w' => e = .returned (.tuple #[.string ⟨(refT (s.data.toList.drop (k + 1)) attr).toArray⟩, .int .i64 ((k : Int) + 1 + (refM (s.data.toList.drop (k + 1)) : Int))]) ∧ Below w.heap.size w w' := by
  have hk : k < s.size := getD_size s k (by rw [h38]; decide)
  have hl : k + 1 ≤ s.data.toList.length := by rw [← Lib.size_eq]; omega
  obtain ⟨e1, -, -, e4⟩ := here s.data.toList (k + 1) hl
  rw [hr] at e1
  rw [hb] at e4
  have HB := fun w => Lib.hid (begins s (k : Int) ⟨#[38]⟩ w hs (by decide) (by omega) (by omega))
  rw [beg_amp, h38, show decide ((38 : UInt8) = 38) = true from rfl] at HB
  have HR := fun w h => Lib.hid (read s ((k : Int) + 1) w hs (by omega) (by omega) h)
  have HL := fun w => Lib.hid (nmLongest_any s ((k : Int) + 1) w (by omega))
  have c : ((k + 1 : Nat) : Int) = (k : Int) + 1 := by omega
  rw [c] at e1 e4
  rw [txtR_no e1, nxtR_no e1, e1] at HR
  rw [e4] at HL
  have HA : Hid ((⟨(refT (s.data.toList.drop (k + 1)) attr).toArray⟩ : ByteArray) = ⟨#[38]⟩) := Lib.hid (by unfold refT; rw [hr, hb]; rfl)
  have HN : Hid ((k : Int) + 1 + (refM (s.data.toList.drop (k + 1)) : Int) = (k : Int) + 1) := Lib.hid (by unfold refM; rw [hr, hb]; simp)
  rw [HA.out, HN.out]
  have z : (s.extract (k + 1) (k + 1)).size = 0 := by rw [ByteArray.size_extract]; omega
  clear HA HN e1 e4 c hr h38 hb
  have HT := Lib.hid hT
  clear hT
  go_enter Tryz.func131, Tryz.ntmps131
  go_wp2_with (fail)
  refine (HB _).out.mono ?_
  rintro e w1 ⟨rfl, n1, rfl⟩
  go_wp2_with (fail)
  refine (HR _ (HT.out.drawn _)).out.mono ?_
  rintro e w1 ⟨rfl, n2, rfl⟩
  go_wp2_with (fail)
  refine (HL _).out.mono ?_
  rintro e w1 ⟨rfl, n3, rfl⟩
  go_wp2
  go_ret2
  exact ⟨rfl, dr_below _ _ _⟩

set_option maxRecDepth 100000 in
set_option maxHeartbeats 4000000 in
theorem rd_name (s : ByteArray) (k : Nat) (attr : Bool) (w : World) (hs : s.size ≤ 1099511627776) (h38 : s.data.toList.getD k 0 = 38) (hT : TabAt w) (hE : ErrAt w) (hr : isRef (s.data.toList.drop (k + 1)) 0 = false) (hb : bestL nmRows (s.data.toList.drop (k + 1)) ≠ 0) :
    Calls Tryz.prog 131 #[.string s, .int .i64 (k : Int), .bool attr] w fun e w' => e = .returned (.tuple #[.string ⟨(refT (s.data.toList.drop (k + 1)) attr).toArray⟩, .int .i64 ((k : Int) + 1 + (refM (s.data.toList.drop (k + 1)) : Int))]) ∧ Below w.heap.size w w' := by
  have hk : k < s.size := getD_size s k (by rw [h38]; decide)
  have hl : k + 1 ≤ s.data.toList.length := by rw [← Lib.size_eq]; omega
  have hat : s[k] = 38 := by rw [← getD_is s k hk]; exact h38
  obtain ⟨e1, -, -, e4⟩ := here s.data.toList (k + 1) hl
  rw [hr] at e1
  have HB := fun w => Lib.hid (begins s (k : Int) ⟨#[38]⟩ w hs (by decide) (by omega) (by omega))
  rw [beg_amp, h38, show decide ((38 : UInt8) = 38) = true from rfl] at HB
  have HR := fun w h => Lib.hid (read s ((k : Int) + 1) w hs (by omega) (by omega) h)
  have HL := fun w => Lib.hid (nmLongest_any s ((k : Int) + 1) w (by omega))
  have c : ((k + 1 : Nat) : Int) = (k : Int) + 1 := by omega
  rw [c] at e1 e4
  rw [txtR_no e1, nxtR_no e1, e1] at HR
  rw [e4] at HL
  have hle := best_le nmRows (s.data.toList.drop (k + 1))
  rw [List.length_drop, ← Lib.size_eq] at hle
  obtain ⟨his, hlen⟩ := best_is _ hb
  have HA : Hid ((⟨(refT (s.data.toList.drop (k + 1)) attr).toArray⟩ : ByteArray) = if keepB (s.data.toList.drop (k + 1)) attr then ⟨(38 :: (s.data.toList.drop (k + 1)).take (bestL nmRows (s.data.toList.drop (k + 1)))).toArray⟩ else ⟨(textL (aOf (nmLook ((s.data.toList.drop (k + 1)).take (bestL nmRows (s.data.toList.drop (k + 1)))))) (bOf (nmLook ((s.data.toList.drop (k + 1)).take (bestL nmRows (s.data.toList.drop (k + 1))))))).toArray⟩) := Lib.hid (by
    unfold refT; rw [hr, if_neg Bool.false_ne_true, if_neg hb]; split <;> rfl)
  have HN : Hid ((k : Int) + 1 + (refM (s.data.toList.drop (k + 1)) : Int) = (k : Int) + 1 + (bestL nmRows (s.data.toList.drop (k + 1)) : Int)) := Lib.hid (by unfold refM; rw [hr]; rfl)
  rw [HN.out]
  obtain ⟨R, hR⟩ : ∃ R : ByteArray, ⟨(refT (s.data.toList.drop (k + 1)) attr).toArray⟩ = R := ⟨_, rfl⟩
  rw [hR] at HA ⊢
  unfold keepB at HA
  obtain ⟨b, hB⟩ : ∃ b, bestL nmRows (s.data.toList.drop (k + 1)) = b := ⟨_, rfl⟩
  rw [hB] at HL HA his hlen hle hb ⊢
  have hlt : k + 1 + b ≤ s.size := by omega
  have hpos : 0 < b := Nat.pos_of_ne_zero hb
  have hq : (s.extract (k + 1) (k + 1 + b)).data.toList = (s.data.toList.drop (k + 1)).take b := by
    rw [extract_data]; congr 1; omega
  have hqs : (s.extract (k + 1) (k + 1 + b)).size = b := by rw [ByteArray.size_extract]; omega
  have hq2 : s.extract k (k + 1 + b) = ⟨(38 :: (s.data.toList.drop (k + 1)).take b).toArray⟩ := str_ext (by
    rw [extract_data, List.toList_toArray, drop_at s k hk, hat, show k + 1 + b - k = b + 1 by omega]; rfl)
  rw [← hq2, ← hq, List.drop_drop] at HA
  rw [← hq] at his
  have HS := fun w => Lib.hid (short_any (s.extract (k + 1) (k + 1 + b)) w (by omega))
  have HV := fun w h => Lib.hid (value_any (s.extract (k + 1) (k + 1 + b)) w h)
  have HG := fun w => Lib.hid (goes_any s (k + 1 + b) w hlt)
  have HX := fun w => Lib.hid (text_any (aOf (nmLook (s.extract (k + 1) (k + 1 + b)).data.toList)) (bOf (nmLook (s.extract (k + 1) (k + 1 + b)).data.toList)) w (by have := aOf_lt (s.extract (k + 1) (k + 1 + b)).data.toList; omega) (by have := bOf_lt (s.extract (k + 1) (k + 1 + b)).data.toList; omega))
  have HC := fun w => Lib.hid (clone_any (s.extract k (k + 1 + b)) w (by rw [ByteArray.size_extract]; omega))
  rw [his, Bool.true_and] at HS
  rw [his] at HV
  have c2 : ((k + 1 + b : Nat) : Int) = (k : Int) + 1 + (b : Int) := by omega
  rw [c2] at HG
  obtain ⟨T, hT'⟩ : ∃ T : ByteArray, ⟨(textL (aOf (nmLook (s.extract (k + 1) (k + 1 + b)).data.toList)) (bOf (nmLook (s.extract (k + 1) (k + 1 + b)).data.toList))).toArray⟩ = T := ⟨_, rfl⟩
  obtain ⟨X, hX⟩ : ∃ X, fl (aOf (nmLook (s.extract (k + 1) (k + 1 + b)).data.toList)) = X := ⟨_, rfl⟩
  obtain ⟨Y, hY⟩ : ∃ Y, fl (bOf (nmLook (s.extract (k + 1) (k + 1 + b)).data.toList)) = Y := ⟨_, rfl⟩
  rw [hX, hY] at HV HX
  rw [hT'] at HX HA
  obtain ⟨h, hh⟩ : ∃ h, hasSuffix (s.extract (k + 1) (k + 1 + b)).data.toList [59] = h := ⟨_, rfl⟩
  obtain ⟨g, hg⟩ : ∃ g, goesB (s.data.toList.drop (k + 1 + b)) = g := ⟨_, rfl⟩
  rw [hh] at HS HA
  rw [hg] at HG HA
  have e0 : (s.extract (k + 1) (k + 1 + b)).toList.isEmpty = false := by
    rw [ByteArray.toList_eq, List.isEmpty_eq_false_iff, ← List.length_pos_iff, ← Lib.size_eq, hqs]; exact hpos
  have HT := Lib.hid hT
  have HE := Lib.hid hE
  clear hT hE hT' hX hY hh hg c c2 his hlen hle hb hB hR HN e1 e4 hq hq2 hr hat h38
  cases attr
  · have HR0 : Hid (R = T) := Lib.hid (by rw [HA.out]; rfl)
    clear HA
    go_enter Tryz.func131, Tryz.ntmps131
    go_wp2_with (fail)
    refine (HB _).out.mono ?_
    rintro e w1 ⟨rfl, n1, rfl⟩
    go_wp2_with (fail)
    refine (HR _ (HT.out.drawn _)).out.mono ?_
    rintro e w1 ⟨rfl, n2, rfl⟩
    go_wp2_with (fail)
    refine (HL _).out.mono ?_
    rintro e w1 ⟨rfl, n3, rfl⟩
    go_wp2_with (fail)
    have b1 := dr_below w.heap.size w (n1 + n2 + n3)
    refine (HV _ (HE.out.below b1)).out.mono ?_
    rintro e w2 ⟨rfl, b2⟩
    go_wp2_with (fail)
    refine (HX _).out.mono ?_
    rintro e w3 ⟨rfl, rfl⟩
    go_wp2
    go_ret2
    rw [HR0.out]
    exact ⟨rfl, b1.trans (b2.mono b1.size)⟩
  · cases h
    · cases g
      · have HR0 : Hid (R = T) := Lib.hid (by rw [HA.out]; rfl)
        clear HA
        go_enter Tryz.func131, Tryz.ntmps131
        go_wp2_with (fail)
        refine (HB _).out.mono ?_
        rintro e w1 ⟨rfl, n1, rfl⟩
        go_wp2_with (fail)
        refine (HR _ (HT.out.drawn _)).out.mono ?_
        rintro e w1 ⟨rfl, n2, rfl⟩
        go_wp2_with (fail)
        refine (HL _).out.mono ?_
        rintro e w1 ⟨rfl, n3, rfl⟩
        have b1 := dr_below w.heap.size w (n1 + n2 + n3)
        go_wp2_with (first | (go_at_call 145; refine (HS _).out.mono ?_; rintro e w2 ⟨rfl, b2⟩) | (go_at_call 146; refine (HG _).out.mono ?_; rintro e w' ⟨rfl, rfl⟩))
        have b3 := b1.trans (b2.mono b1.size)
        refine (HV _ (HE.out.below b3)).out.mono ?_
        rintro e w4 ⟨rfl, b4⟩
        go_wp2_with (fail)
        refine (HX _).out.mono ?_
        rintro e w5 ⟨rfl, rfl⟩
        go_wp2
        go_ret2
        rw [HR0.out]
        exact ⟨rfl, b3.trans (b4.mono b3.size)⟩
      · have HR0 : Hid (R = s.extract k (k + 1 + b)) := Lib.hid (by rw [HA.out]; rfl)
        clear HA
        go_enter Tryz.func131, Tryz.ntmps131
        go_wp2_with (fail)
        refine (HB _).out.mono ?_
        rintro e w1 ⟨rfl, n1, rfl⟩
        go_wp2_with (fail)
        refine (HR _ (HT.out.drawn _)).out.mono ?_
        rintro e w1 ⟨rfl, n2, rfl⟩
        go_wp2_with (fail)
        refine (HL _).out.mono ?_
        rintro e w1 ⟨rfl, n3, rfl⟩
        have b1 := dr_below w.heap.size w (n1 + n2 + n3)
        go_wp2_with (first | (go_at_call 145; refine (HS _).out.mono ?_; rintro e w2 ⟨rfl, b2⟩) | (go_at_call 146; refine (HG _).out.mono ?_; rintro e w' ⟨rfl, rfl⟩))
        have b3 := b1.trans (b2.mono b1.size)
        refine (HC _).out.mono ?_
        rintro e w4 ⟨rfl, b4⟩
        go_wp2
        go_ret2
        rw [HR0.out]
        exact ⟨rfl, b3.trans (b4.mono b3.size)⟩
    · have HR0 : Hid (R = T) := Lib.hid (by rw [HA.out]; cases g <;> rfl)
      clear HA
      go_enter Tryz.func131, Tryz.ntmps131
      go_wp2_with (fail)
      refine (HB _).out.mono ?_
      rintro e w1 ⟨rfl, n1, rfl⟩
      go_wp2_with (fail)
      refine (HR _ (HT.out.drawn _)).out.mono ?_
      rintro e w1 ⟨rfl, n2, rfl⟩
      go_wp2_with (fail)
      refine (HL _).out.mono ?_
      rintro e w1 ⟨rfl, n3, rfl⟩
      have b1 := dr_below w.heap.size w (n1 + n2 + n3)
      go_wp2_with (go_at_call 145; refine (HS _).out.mono ?_; rintro e w2 ⟨rfl, b2⟩)
      have b3 := b1.trans (b2.mono b1.size)
      refine (HV _ (HE.out.below b3)).out.mono ?_
      rintro e w4 ⟨rfl, b4⟩
      go_wp2_with (fail)
      refine (HX _).out.mono ?_
      rintro e w5 ⟨rfl, rfl⟩
      go_wp2
      go_ret2
      rw [HR0.out]
      exact ⟨rfl, b3.trans (b4.mono b3.size)⟩

/-- P7.1 -/
theorem rd_any (s : ByteArray) (a : Int) (attr : Bool) (w : World) (hs : s.size ≤ 1099511627776) (ha : -9223372036854775808 ≤ a ∧ a ≤ 9223372036854775807) (hT : TabAt w) (hE : ErrAt w) :
    Calls Tryz.prog 131 #[.string s, .int .i64 a, .bool attr] w fun e w' => e = .returned (.tuple #[.string ⟨(rdT s.data.toList a attr).toArray⟩, .int .i64 (rdN s.data.toList a)]) ∧ Below w.heap.size w w' := by
  by_cases h : 0 ≤ a ∧ s.data.toList.getD a.toNat 0 = 38
  · obtain ⟨h0, h38⟩ := h
    obtain ⟨k, rfl⟩ : ∃ k : Nat, a = k := ⟨a.toNat, by omega⟩
    rw [show ((k : Nat) : Int).toNat = k by omega] at h38
    obtain ⟨e1, e2⟩ := rd_yes s.data.toList k attr h38
    rw [e1, e2]
    by_cases hr : isRef (s.data.toList.drop (k + 1)) 0 = true
    · exact rd_num s k attr w hs h38 hT hr
    · rw [Bool.not_eq_true] at hr
      by_cases hb : bestL nmRows (s.data.toList.drop (k + 1)) = 0
      · exact rd_just s k attr w hs h38 hT hr hb
      · exact rd_name s k attr w hs h38 hT hE hr hb
  · obtain ⟨e1, e2⟩ := rd_no s.data.toList a attr h
    rw [e1, e2]
    have HB := fun w => Lib.hid (show Calls Tryz.prog 78 #[.string s, .int .i64 a, .string ⟨#[38]⟩] w fun e w' => e = .returned (.bool false) ∧ ∃ n, w' = w.drewN n from by
      have := begins s a ⟨#[38]⟩ w hs (by decide) ha.1 ha.2
      rwa [show begS s a ⟨#[38]⟩ = false from by
        by_cases h0 : a < 0
        · exact begS_neg s a _ h0
        · obtain ⟨k, rfl⟩ : ∃ k : Nat, a = k := ⟨a.toNat, by omega⟩
          rw [beg_amp]
          exact decide_eq_false fun h38 => h ⟨by omega, by rw [show ((k : Nat) : Int).toNat = k by omega]; exact h38⟩] at this)
    clear h e1 e2
    go_enter Tryz.func131, Tryz.ntmps131
    go_wp2_with (fail)
    refine (HB _).out.mono ?_
    rintro e w1 ⟨rfl, n1, rfl⟩
    go_wp2
    go_ret2
    exact ⟨rfl, dr_below _ _ _⟩
end Go.Proofs.YtbcmfcddkegcoaaGreatDoor

/-! What the document's Read of layer 7 answers, for every text, place and destination. -/
namespace Go.Proofs.YtbcmfcddkegcoaaGreatDoor
open Go.RowKit Go.Lib

end Go.Proofs.YtbcmfcddkegcoaaGreatDoor

/-! What the document's Decode of layer 7 answers, for every text. -/
namespace Go.Proofs.YtbcmfcddkegcoaaGreatDoor
open Go.RowKit Go.Lib

end Go.Proofs.YtbcmfcddkegcoaaGreatDoor

/-! What package ref's Decode answers, for every text. -/
namespace Go.Proofs.YtbcmfcddkegcoaaGreatDoor
open Go.RowKit Go.Lib

/-- the bytes ahead of the next ampersand, and what is left -/
theorem cut_amp : ∀ l : Txt, ∃ p rest, l = p ++ rest ∧ 38 ∉ p ∧ (rest = [] ∨ ∃ z, rest = 38 :: z)
  | [] => ⟨[], [], rfl, by simp, .inl rfl⟩
  | c :: l => by
    by_cases h : c = 38
    · subst h; exact ⟨[], 38 :: l, rfl, by simp, .inr ⟨l, rfl⟩⟩
    · obtain ⟨p, rest, h1, h2, h3⟩ := cut_amp l
      refine ⟨c :: p, rest, by rw [h1]; rfl, ?_, h3⟩
      rw [List.mem_cons, not_or]
      exact ⟨fun e => h e.symm, h2⟩
theorem pass_end (attr : Bool) (l p acc : Txt) (i : Nat) (hp : l.drop i = p) (h38 : 38 ∉ p) (heq : acc ++ ddL attr (l.drop i) = ddL attr l) : acc ++ p = ddL attr l := by
  rw [hp, dd_stays attr p h38] at heq; exact heq
theorem pass_amp (attr : Bool) (l p z acc : Txt) (i : Nat) (hp : l.drop i = p ++ 38 :: z) (h38 : 38 ∉ p) (heq : acc ++ ddL attr (l.drop i) = ddL attr l) :
    l.getD (i + p.length) 0 = 38 ∧ l.drop (i + p.length + 1) = z ∧ i + p.length + 1 + z.length = l.length ∧ (acc ++ p ++ refT z attr) ++ ddL attr (l.drop (i + p.length + 1 + refM z)) = ddL attr l := by
  have h1 : l.drop (i + p.length) = 38 :: z := by rw [← List.drop_drop, hp, List.drop_left]
  have h2 : l.drop (i + p.length + 1) = z := by rw [← List.drop_drop, h1]; rfl
  have h3 : i + p.length < l.length := by
    refine Nat.lt_of_not_le fun h => ?_
    rw [List.drop_eq_nil_of_le h] at h1
    exact absurd h1.symm (List.cons_ne_nil _ _)
  refine ⟨?_, h2, ?_, ?_⟩
  · rw [List.getD_eq_getElem?_getD, ← Nat.add_zero (i + p.length), ← List.getElem?_drop, h1]; rfl
  · have := congrArg List.length h1
    rw [List.length_drop, List.length_cons] at this
    omega
  · rw [← List.drop_drop, h2, ← heq, hp, dd_ahead attr _ p h38, dd_amp]
    simp only [List.append_assoc]

set_option maxRecDepth 100000 in
set_option maxHeartbeats 4000000 in
/-- P7.2 -/
theorem decode_any (s : ByteArray) (attr : Bool) (w : World) (hs : s.size ≤ 1099511627776) (hT : TabAt w) (hE : ErrAt w) :
    Calls Tryz.prog 111 #[.string s, .bool attr] w fun e w' => e = .returned (.string ⟨(ddL attr s.data.toList).toArray⟩) ∧ Below w.heap.size w w' := by
  have HT := Lib.hid hT
  have HE := Lib.hid hE
  clear hT hE
  go_enter Tryz.func111, Tryz.ntmps111
  go_wp2
  refine wp_scope_label 0 (fun a' wr => ∃ (at_ : Nat) (acc : List UInt8) (u2 u3 u7 u8 u9 u10 u11 u12 u13 u14 u15 u16 u17 u18 u19 u20 u21 u22 u23 u24 u25 u26 u27 u28 u29 u30 u31 u32 u33 u34 u35 u36 u37 u38 u39 u40 : Value), a' = { tmps := #[.string s, .bool attr, u2, u3, .string ⟨#[]⟩, .pointer (some ⟨w.heap.size, 0, none⟩), .int .i64 (at_ : Int), u7, u8, u9, u10, u11, u12, u13, u14, u15, u16, u17, u18, u19, u20, u21, u22, u23, u24, u25, u26, u27, u28, u29, u30, u31, u32, u33, u34, u35, u36, u37, u38, u39, u40], defers := [] } ∧ Lib.IsBuilderF 53 5 w.heap.size w.heap.size (Lib.byteCells acc) wr ∧ Below w.heap.size w wr ∧ at_ ≤ s.size ∧ acc ++ ddL attr (s.data.toList.drop at_) = ddL attr s.data.toList ∧ acc.length ≤ 3 * at_)
    (fun a' _ => s.size - (intOf (a'.tmps.getD 6 undef)).toNat) rfl ?_ ?_
  · rintro a' wr ⟨at_, acc, u2, u3, u7, u8, u9, u10, u11, u12, u13, u14, u15, u16, u17, u18, u19, u20, u21, u22, u23, u24, u25, u26, u27, u28, u29, u30, u31, u32, u33, u34, u35, u36, u37, u38, u39, u40, rfl, hI, hbw, hle, heq, hacc⟩
    have hsz := hbw.size
    obtain ⟨p, rest, hp, h38, hrest⟩ := cut_amp (s.data.toList.drop at_)
    have hxs : (s.extract at_ s.size).size ≤ 1099511627776 := by rw [ByteArray.size_extract]; omega
    have HC := fun w => Lib.hid (cut_any (s.extract at_ s.size) 38 p rest w hxs (by rw [extract_data, List.take_of_length_le (by rw [List.length_drop, ← Lib.size_eq]; omega)]; exact hp) h38 hrest)
    unfold cutV at HC
    obtain ⟨L, hL⟩ : ∃ L : ByteArray, ⟨p.toArray⟩ = L := ⟨_, rfl⟩
    have hLl : L.data.toList = p := by rw [← hL, List.toList_toArray]
    have hLs : L.size = p.length := by rw [Lib.size_eq, hLl]
    have hlen : at_ + p.length + rest.length = s.size := by
      have := congrArg List.length hp
      rw [List.length_drop, ← Lib.size_eq, List.length_append] at this
      omega
    rw [hL] at HC
    rcases hrest with rfl | ⟨z, rfl⟩
    · have HE2 := Lib.hid (pass_end attr s.data.toList p acc at_ (by rw [hp, List.append_nil]) h38 heq)
      have hLb : at_ + L.size ≤ s.size := by omega
      have HLc := Lib.hid (show Lib.strCells L = Lib.byteCells p by rw [← hLl]; rfl)
      clear heq hp h38 hL hLl hLs hlen hxs
      go_wp2_with (fail)
      refine (HC _).out.mono ?_
      rintro e w1 ⟨rfl, n1, rfl⟩
      have hI1 := Lib.IsBuilderF.below hI (dr_below _ wr n1)
      go_wp2_with (fail)
      refine (writeString w.heap.size w.heap.size _ L _ hI1 (by rw [byteCells_length]; omega) hsz).mono ?_
      rintro e w2 ⟨rfl, h1, b1, -⟩
      rw [HLc.out, ← byteCells_append] at h1
      go_wp2_with (fail)
      refine (Tryz.Builder_String_any_k w.heap.size w.heap.size (acc ++ p) _ (.inr h1) (Nat.le_trans (show w.heap.size ≤ (wr.drewN n1).heap.size from hsz) b1.size)).mono ?_
      rintro e w3 ⟨rfl, _, b2, _⟩
      go_wp2
      simp only [Exit.jump]
      go_ret
      refine ⟨ret_str (by rw [HE2.out]), ((hbw.trans (dr_below _ wr n1)).trans b1).trans b2⟩
    · obtain ⟨k1, k2, k3, k4⟩ := pass_amp attr s.data.toList p z acc at_ hp h38 heq
      have hm := refM_le z
      have ht := (refT_len z attr).2
      rw [← Lib.size_eq] at k3
      have HR := fun w h1 h2 => Lib.hid (rd_any s ((at_ + p.length : Nat) : Int) attr w hs (by omega) h1 h2)
      obtain ⟨r1, r2⟩ := rd_yes s.data.toList (at_ + p.length) attr k1
      rw [r1, r2, k2, show ((at_ + p.length : Nat) : Int) + 1 + (refM z : Int) = ((at_ + p.length + 1 + refM z : Nat) : Int) by omega, show ((at_ + p.length : Nat) : Int) = (at_ : Int) + (L.size : Int) by omega] at HR
      obtain ⟨M, hM⟩ : ∃ M, at_ + p.length + 1 + refM z = M := ⟨_, rfl⟩
      rw [hM] at HR k4
      have hM1 : at_ < M := by omega
      have hM2 : M ≤ s.size := by omega
      have hM3 : acc.length + p.length + (refT z attr).length ≤ 3 * M := by omega
      have hLb : at_ + L.size ≤ s.size := by omega
      obtain ⟨X, hX⟩ : ∃ X : ByteArray, ⟨(refT z attr).toArray⟩ = X := ⟨_, rfl⟩
      have hXl : X.data.toList = refT z attr := by rw [← hX, List.toList_toArray]
      have hXn : X.size = (refT z attr).length := by rw [Lib.size_eq, hXl]
      have hXs : acc.length + L.size + X.size ≤ 3 * M := by omega
      have HXn := Lib.hid hXn
      have HXc := Lib.hid (show Lib.strCells X = Lib.byteCells (refT z attr) by rw [← hX]; rfl)
      have HLc := Lib.hid (show Lib.strCells L = Lib.byteCells p by rw [← hLl]; rfl)
      have HK := Lib.hid k4
      have HLs := Lib.hid hLs
      rw [hX] at HR
      clear hX hXl hXn hM heq hp h38 hL hLl hLs hlen hxs k1 k2 k3 k4 r1 r2 ht hm
      go_wp2_with (fail)
      refine (HC _).out.mono ?_
      rintro e w1 ⟨rfl, n1, rfl⟩
      have hI1 := Lib.IsBuilderF.below hI (dr_below _ wr n1)
      go_wp2_with (fail)
      refine (writeString w.heap.size w.heap.size _ L _ hI1 (by rw [byteCells_length]; omega) hsz).mono ?_
      rintro e w2 ⟨rfl, h1, b1, -⟩
      rw [HLc.out, ← byteCells_append] at h1
      have B2 := (hbw.trans (dr_below w.heap.size wr n1)).trans b1
      have hs2 : w.heap.size ≤ w2.heap.size := B2.size
      go_wp2_with (fail)
      refine (HR _ (HT.out.below B2) (HE.out.below B2)).out.mono ?_
      rintro e w3 ⟨rfl, b3⟩
      have B3 := B2.trans (b3.mono hs2)
      have h3 := Lib.IsBuilderF.below (.inr h1) b3
      go_wp2_with (fail)
      refine (writeString w.heap.size w.heap.size _ X _ h3 (by rw [byteCells_length, List.length_append, ← HLs.out]; omega) B3.size).mono ?_
      rintro e w4 ⟨rfl, h4, b4, -⟩
      rw [HXc.out, ← byteCells_append] at h4
      go_wp2
      go_step3
      refine ⟨rfl, ⟨M, acc ++ p ++ refT z attr, _, _, _, _, _, _, _, _, _, _, _, _, _, _, _, _, _, _, _, _, _, _, _, _, _, _, _, _, _, _, _, _, _, _, _, _, rfl, .inr h4, B3.trans b4, hM2, HK.out, by rw [List.length_append, List.length_append]; exact hM3⟩, ?_⟩
      simp [intOf]; omega
  · intro hpass
    go_wp2_with (fail)
    refine (Tryz.Builder_Grow_fresh w.heap.size w.heap.size s.size _ (Nat.le_refl _) (heap_alloc_new w _) (by simp) (by omega)).mono ?_
    rintro e w2 ⟨rfl, hB0, hbel0⟩
    have hI0 : Lib.IsBuilderF 53 5 w.heap.size w.heap.size [] w2 := Lib.IsBuilderF.of (.inr hB0)
    go_wp2
    go_step3
    rename_i K hK
    refine hK _ _ (hpass _ _ ?_)
    exact ⟨0, [], _, _, _, _, _, _, _, _, _, _, _, _, _, _, _, _, _, _, _, _, _, _, _, _, _, _, _, _, _, _, _, _, _, _, _, _, rfl, hI0, ((Below.refl _ w).alloc (Nat.le_refl _) _).trans hbel0, Nat.zero_le _, rfl, Nat.zero_le _⟩
end Go.Proofs.YtbcmfcddkegcoaaGreatDoor

/-! The program's table and the library's variable for an error: what the row's list gives, and a world that holds all that is listed. -/
namespace Go.Proofs.YtbcmfcddkegcoaaGreatDoor
open Go.ChangeShapes Go.WideShapes Go.ChangeAt Go.RowKit

theorem gErr : Tryz.prog.globalNamed "strconv.ErrSyntax" = some 2 := by kernel_rfl
theorem gErrType : (Tryz.prog.globals[2]?).map (·.type) = some 56 := by kernel_rfl
theorem cellsErrS : Tryz.prog.cellsOf 188 = 1 := by kernel_rfl
theorem cellsStr : Tryz.prog.cellsOf 9 = 1 := by kernel_rfl
theorem starErr : "*" ++ "errors.errorString" = "*errors.errorString" := by decide
theorem rowErr (u : TypeId) (h : Tryz.prog.typeName? 3 u = some "*errors.errorString") : u = 186 :=
  typeName_ptr_named (nm := "errors.errorString") (by rw [starErr]; kernel_rfl) (by kernel_rfl) (by decide) u (by rw [starErr]; exact h)
theorem gTab : Tryz.prog.globalNamed "flail/number.others" = some 1 := by kernel_rfl
theorem gTabType : (Tryz.prog.globals[1]?).map (·.type) = some 170 := by kernel_rfl
theorem cellsTab : Tryz.prog.cellsOf 170 = 32 := by kernel_rfl
theorem cellsInt : Tryz.prog.cellsOf 3 = 1 := by kernel_rfl

/-- both variables hold what the text lays; a third one holds some number -/
structure LaidAt (w : World) : Prop where
  tab : TabAt w
  err : ErrAt w
  max : MaxAt w
theorem LaidAt.below {w w' : World} (h : LaidAt w) (hb : Below w.heap.size w w') : LaidAt w' := ⟨h.tab.below hb, h.err.below hb, h.max.below hb⟩
set_option maxRecDepth 100000 in
/-- what the row's list gives -/
theorem tabAt_of {W : World} (h : laidMetH Tryz.prog Rows.escapeSignsRow.laid W) (hsh : W.ShapedOpen Tryz.prog) : LaidAt W := by
  have h' : laidMet Tryz.prog Rows.escapeSignsRow.laid W := h
  obtain ⟨ps, ⟨g0, t0, cs0, f0, p0, q0, hg0, ht0, hv0, hd0, ⟨g1, t1, cs1, f1, p1, q1, hg1, ht1, hv1, hd1, ⟨g2, t2, cs2, f2, p2, q2, hg2, ht2, hv2, hd2, ⟨g3, t3, cs3, f3, p3, q3, hg3, ht3, hv3, hd3, ⟨g4, t4, cs4, f4, p4, q4, hg4, ht4, hv4, hd4, ⟨g5, t5, cs5, f5, p5, q5, hg5, ht5, hv5, hd5, hq5, e5⟩, e4⟩, e3⟩, e2⟩, e1⟩, e0⟩, hnd, hrows⟩ := h'
  obtain rfl := Option.some.inj (gErr.symm.trans hg4)
  obtain rfl := Option.some.inj (gErrType.symm.trans ht4)
  obtain rfl := Option.some.inj (gTab.symm.trans hg5)
  obtain rfl := Option.some.inj (gTabType.symm.trans ht5)
  have hT : Lib.TabIs Tryz.prog W "flail/number.others" .i64 tabL := by
    have := Lib.cells_of_tab (zs := tabL) (k := .i64) Tryz.underlying170 Tryz.underlying3 cellsInt cellsTab hd5
    unfold Lib.TabIs
    rw [hv5, ← this]
  obtain ⟨l4⟩ := cs4
  have ok4 : ∀ u v, l4 = [.iface u v] → Value.okWide Tryz.prog W .any 0 u v := fun u v e => by
    subst e
    subst e5; subst e4; subst e3; subst e2; subst e1; subst e0
    exact (hrows 2 0 (by simp [MemPlace.row])).2 u v (by simpa using World.var?_cell hg4 hv4 0)
  obtain ⟨a4, s4, rfl, -⟩ := errorString_of_trod Tryz.underlying56 rowErr Tryz.underlying186 Tryz.underlying188 rfl rfl Tryz.underlying9 cellsErrS cellsStr hd4 ok4
  have hc : W.cell? ⟨2, 0, none⟩ = some (.iface 186 (.pointer (some a4))) := by simpa using World.var?_cell gErr hv4 0
  have hc5 : ∀ i, i < 32 → W.cell? ⟨1, i, none⟩ = some (.int .i64 (tabL.getD i 0)) := fun i hi => hT.cell gTab i hi
  refine ⟨⟨?_, hc5⟩, ⟨?_, _, _, hc⟩, maxAt_of hsh⟩
  · rcases Nat.lt_or_ge 1 W.heap.size with h' | h'
    · omega
    · have := hc5 0 (by decide)
      simp [World.cell?, Array.getElem?_eq_none h'] at this
  · rcases Nat.lt_or_ge 2 W.heap.size with h' | h'
    · exact h'
    · simp [World.cell?, Array.getElem?_eq_none h'] at hc

/-- a world for the witness: the settled one, its heap the one that the initialisers leave -/
noncomputable def laidWorld (os : Os) : World := World.doorLaid Tryz.prog 67 os
end Go.Proofs.YtbcmfcddkegcoaaGreatDoor
