/-
  What the document's Read of layer 7 answers, for every text, place and destination.
-/
import Derived.Test.YtdpgdcbclgdjaaaDoorRefCode
import Derived.Test.YtdpgdcbclgdjaaaDoorNumAwake
import Derived.Test.YtdpgdcbclgdjaaaDoorNamRefC
import Derived.Test.YtdpgdcbclgdjaaaDoorSignRef
namespace Go.Proofs.YtdpgdcbclgdjaaaDoor
open Go.RowKit Go.Lib

theorem byte_ne (c : UInt8) (n : Nat) (hn : n < 256) (h : c = UInt8.ofNat n) : ((((c.toNat : Nat) : Int) != (n : Int)) = false) := by
  subst h
  rw [bne_eq_false_iff_eq, UInt8.toNat_ofNat']; omega

set_option maxRecDepth 100000 in
set_option maxHeartbeats 4000000 in
theorem dc_num (s : ByteArray) (k : Nat) (attr : Bool) (w : World) (hs : s.size ≤ 1099511627776) (h38 : s.data.toList.getD k 0 = 38) (hr : isRef (s.data.toList.drop (k + 1)) 0 = true) :
    Calls Tryd.prog 11 #[.string s, .int .i64 (k : Int), .bool attr] w fun e w' => e = .returned (.tuple #[.string ⟨(refT (s.data.toList.drop (k + 1)) attr).toArray⟩, .int .i64 ((k : Int) + 1 + (refM (s.data.toList.drop (k + 1)) : Int))]) ∧ Below w.heap.size w w' := by
  have hk : k < s.size := getD_size s k (by rw [h38]; decide)
  have hl : k + 1 ≤ s.data.toList.length := by rw [← Lib.size_eq]; omega
  have b38 : (((s[k].toNat : Nat) : Int) != 38) = false := byte_ne _ 38 (by decide) (by rw [← getD_is s k hk]; exact h38)
  obtain ⟨e1, e2, e3, -⟩ := here s.data.toList (k + 1) hl
  rw [hr] at e1
  have HR := fun w => Lib.hid (refRead s ((k : Int) + 1) w hs (by omega) (by omega))
  have c : ((k + 1 : Nat) : Int) = (k : Int) + 1 := by omega
  have f1 := txtR_yes (k := k + 1) e1
  have f2 := nxtR_yes (k := k + 1) e1
  rw [c] at f1 f2 e1
  rw [f1, f2, e1, e2, e3] at HR
  obtain ⟨A, hA⟩ : ∃ A, fixS (refN (s.data.toList.drop (k + 1)) 0) = A := ⟨_, rfl⟩
  obtain ⟨E, hE⟩ : ∃ E : Int, ((k + 1 + endN (s.data.toList.drop (k + 1)) 0 : Nat) : Int) = E := ⟨_, rfl⟩
  have HA : Hid ((⟨(refT (s.data.toList.drop (k + 1)) attr).toArray⟩ : ByteArray) = A) := Lib.hid (by unfold refT; rw [if_pos hr, ← hA])
  have HN : Hid ((k : Int) + 1 + (refM (s.data.toList.drop (k + 1)) : Int) = E) := Lib.hid (by unfold refM; rw [if_pos hr, ← hE]; omega)
  rw [hA, hE] at HR
  rw [HA.out, HN.out]
  clear hA hE HA HN f1 f2 e1 e2 e3 c hr h38
  go_enter Tryd.func11, Tryd.ntmps11
  go_wp2_with (fail)
  refine (HR _).out.mono ?_
  rintro e w1 ⟨rfl, b1⟩
  go_wp2
  go_ret2
  exact ⟨rfl, b1⟩

set_option maxRecDepth 100000 in
set_option maxHeartbeats 4000000 in
theorem dc_just (s : ByteArray) (k : Nat) (attr : Bool) (w : World) (hs : s.size ≤ 1099511627776) (h38 : s.data.toList.getD k 0 = 38) (hr : isRef (s.data.toList.drop (k + 1)) 0 = false) (hb : bestL nmRows (s.data.toList.drop (k + 1)) = 0) :
    Calls Tryd.prog 11 #[.string s, .int .i64 (k : Int), .bool attr] w fun e w' => e = .returned (.tuple #[.string ⟨(refT (s.data.toList.drop (k + 1)) attr).toArray⟩, .int .i64 ((k : Int) + 1 + (refM (s.data.toList.drop (k + 1)) : Int))]) ∧ Below w.heap.size w w' := by
  have hk : k < s.size := getD_size s k (by rw [h38]; decide)
  have hl : k + 1 ≤ s.data.toList.length := by rw [← Lib.size_eq]; omega
  have b38 : (((s[k].toNat : Nat) : Int) != 38) = false := byte_ne _ 38 (by decide) (by rw [← getD_is s k hk]; exact h38)
  obtain ⟨e1, -, -, e4⟩ := here s.data.toList (k + 1) hl
  rw [hr] at e1
  rw [hb] at e4
  have HR := fun w => Lib.hid (refRead s ((k : Int) + 1) w hs (by omega) (by omega))
  have HL := fun w => Lib.hid (refNmLongest_any s ((k : Int) + 1) w hs (by omega))
  have c : ((k + 1 : Nat) : Int) = (k : Int) + 1 := by omega
  rw [c] at e1 e4
  rw [txtR_no e1, nxtR_no e1, e1] at HR
  rw [e4] at HL
  have HA : Hid ((⟨(refT (s.data.toList.drop (k + 1)) attr).toArray⟩ : ByteArray) = ⟨#[38]⟩) := Lib.hid (by unfold refT; rw [hr, hb]; rfl)
  have HN : Hid ((k : Int) + 1 + (refM (s.data.toList.drop (k + 1)) : Int) = (k : Int) + 1) := Lib.hid (by unfold refM; rw [hr, hb]; simp)
  rw [HA.out, HN.out]
  clear HA HN e1 e4 c hr h38 hb
  go_enter Tryd.func11, Tryd.ntmps11
  go_wp2_with (fail)
  refine (HR _).out.mono ?_
  rintro e w1 ⟨rfl, b1⟩
  go_wp2_with (fail)
  refine (HL _).out.mono ?_
  rintro e w2 ⟨rfl, n2, rfl⟩
  go_wp2
  go_ret2
  exact ⟨rfl, b1.trans (dr_below _ _ _)⟩

set_option maxRecDepth 100000 in
set_option maxHeartbeats 4000000 in
theorem dc_name (s : ByteArray) (k : Nat) (attr : Bool) (w : World) (hs : s.size ≤ 1099511627776) (h38 : s.data.toList.getD k 0 = 38) (hr : isRef (s.data.toList.drop (k + 1)) 0 = false) (hb : bestL nmRows (s.data.toList.drop (k + 1)) ≠ 0) :
    Calls Tryd.prog 11 #[.string s, .int .i64 (k : Int), .bool attr] w fun e w' => e = .returned (.tuple #[.string ⟨(refT (s.data.toList.drop (k + 1)) attr).toArray⟩, .int .i64 ((k : Int) + 1 + (refM (s.data.toList.drop (k + 1)) : Int))]) ∧ Below w.heap.size w w' := by
  have hk : k < s.size := getD_size s k (by rw [h38]; decide)
  have hl : k + 1 ≤ s.data.toList.length := by rw [← Lib.size_eq]; omega
  have hat : s[k] = 38 := by rw [← getD_is s k hk]; exact h38
  have b38 : (((s[k].toNat : Nat) : Int) != 38) = false := byte_ne _ 38 (by decide) hat
  obtain ⟨e1, -, -, e4⟩ := here s.data.toList (k + 1) hl
  rw [hr] at e1
  have HR := fun w => Lib.hid (refRead s ((k : Int) + 1) w hs (by omega) (by omega))
  have HL := fun w => Lib.hid (refNmLongest_any s ((k : Int) + 1) w hs (by omega))
  have c : ((k + 1 : Nat) : Int) = (k : Int) + 1 := by omega
  rw [c] at e1 e4
  rw [txtR_no e1, nxtR_no e1, e1] at HR
  rw [e4] at HL
  have hle := best_le nmRows (s.data.toList.drop (k + 1))
  rw [List.length_drop, ← Lib.size_eq] at hle
  have HA : Hid ((⟨(refT (s.data.toList.drop (k + 1)) attr).toArray⟩ : ByteArray) = if keepB (s.data.toList.drop (k + 1)) attr then ⟨(38 :: (s.data.toList.drop (k + 1)).take (bestL nmRows (s.data.toList.drop (k + 1)))).toArray⟩ else ⟨(textL (aOf (nmLook ((s.data.toList.drop (k + 1)).take (bestL nmRows (s.data.toList.drop (k + 1)))))) (bOf (nmLook ((s.data.toList.drop (k + 1)).take (bestL nmRows (s.data.toList.drop (k + 1))))))).toArray⟩) := Lib.hid (by
    unfold refT; rw [hr, if_neg Bool.false_ne_true, if_neg hb]; split <;> rfl)
  have HN : Hid ((k : Int) + 1 + (refM (s.data.toList.drop (k + 1)) : Int) = (k : Int) + 1 + (bestL nmRows (s.data.toList.drop (k + 1)) : Int)) := Lib.hid (by unfold refM; rw [hr]; rfl)
  rw [HN.out]
  obtain ⟨R, hR⟩ : ∃ R : ByteArray, ⟨(refT (s.data.toList.drop (k + 1)) attr).toArray⟩ = R := ⟨_, rfl⟩
  rw [hR] at HA ⊢
  unfold keepB at HA
  obtain ⟨b, hB⟩ : ∃ b, bestL nmRows (s.data.toList.drop (k + 1)) = b := ⟨_, rfl⟩
  rw [hB] at HL HA hle hb ⊢
  have hlt : k + 1 + b ≤ s.size := by omega
  have hpos : 0 < b := Nat.pos_of_ne_zero hb
  have hq : (s.extract (k + 1) (k + 1 + b)).data.toList = (s.data.toList.drop (k + 1)).take b := by
    rw [extract_data]; congr 1; omega
  have hqs : (s.extract (k + 1) (k + 1 + b)).size = b := by rw [ByteArray.size_extract]; omega
  have hq2 : s.extract k (k + 1 + b) = ⟨(38 :: (s.data.toList.drop (k + 1)).take b).toArray⟩ := str_ext (by
    rw [extract_data, List.toList_toArray, drop_at s k hk, hat, show k + 1 + b - k = b + 1 by omega]; rfl)
  rw [← hq2, ← hq, List.drop_drop] at HA
  have HV := fun w => Lib.hid (refNmText_any (s.extract (k + 1) (k + 1 + b)) w (by omega))
  obtain ⟨T, hT'⟩ : ∃ T : ByteArray, ⟨(textL (aOf (nmLook (s.extract (k + 1) (k + 1 + b)).data.toList)) (bOf (nmLook (s.extract (k + 1) (k + 1 + b)).data.toList))).toArray⟩ = T := ⟨_, rfl⟩
  rw [hT'] at HV HA
  obtain ⟨m, hm⟩ : ∃ m, m = k + b := ⟨_, rfl⟩
  have hms : m < s.size := by omega
  have hlast : (((s[m].toNat : Nat) : Int) != 59) = !hasSuffix (s.extract (k + 1) (k + 1 + b)).data.toList [59] := by
    obtain ⟨j, rfl⟩ : ∃ j, b = j + 1 := ⟨b - 1, by omega⟩
    have := last_ne (s.extract (k + 1) (k + 1 + (j + 1))) j (by omega) hqs
    rw [← this]
    congr 3
    have e : (s.extract (k + 1) (k + 1 + (j + 1)))[j]'(by omega) = s[k + 1 + j] := by simp [ByteArray.getElem_extract]
    rw [e]
    congr 2
    omega
  have hmi : (k : Int) + 1 + (b : Int) - 1 = (m : Int) := by omega
  obtain ⟨h, hh⟩ : ∃ h, hasSuffix (s.extract (k + 1) (k + 1 + b)).data.toList [59] = h := ⟨_, rfl⟩
  rw [hh] at hlast HA
  have HG : Hid (∀ h : k + 1 + b < s.size, goesB (s.data.toList.drop (k + 1 + b)) = (((s[k + 1 + b].toNat : Nat) : Int) == 61 || (letterI ((s[k + 1 + b].toNat : Nat) : Int) || digitI ((s[k + 1 + b].toNat : Nat) : Int)))) := Lib.hid (fun h => by
    rw [drop_at s _ h, goesB, ← wordN_int]
    congr 1
    rw [Bool.eq_iff_iff, beq_iff_eq, beq_iff_eq, ← UInt8.toNat_inj, show (61 : UInt8).toNat = 61 from rfl]
    omega)
  have HG2 : Hid (¬ k + 1 + b < s.size → goesB (s.data.toList.drop (k + 1 + b)) = false) := Lib.hid (fun h => by rw [List.drop_eq_nil_of_le (by rw [← Lib.size_eq]; omega)]; rfl)
  obtain ⟨g, hg⟩ : ∃ g, goesB (s.data.toList.drop (k + 1 + b)) = g := ⟨_, rfl⟩
  rw [hg] at HG HG2 HA
  clear hT' hh hg c hle hb hB hR HN e1 e4 hq hq2 hr hat h38 hqs hm
  cases attr
  · have HR0 : Hid (R = T) := Lib.hid (by rw [HA.out]; rfl)
    clear HA HG HG2
    clear hlast hmi
    go_enter Tryd.func11, Tryd.ntmps11
    go_wp2_with (fail)
    refine (HR _).out.mono ?_
    rintro e w1 ⟨rfl, b1⟩
    go_wp2_with (fail)
    refine (HL _).out.mono ?_
    rintro e w2 ⟨rfl, n2, rfl⟩
    have b3 := b1.trans (dr_below w.heap.size w1 n2)
    go_wp2_with (fail)
    refine (HV _).out.mono ?_
    rintro e w4 ⟨rfl, b4⟩
    go_wp2
    go_ret2
    rw [HR0.out]
    exact ⟨rfl, b3.trans (b4.mono b3.size)⟩
  · cases h
    · by_cases hend : k + 1 + b < s.size
      · have HLt := fun w => Lib.hid (refLetter ((s[k + 1 + b].toNat : Nat) : Int) w (by omega) (by have := s[k + 1 + b].toNat_lt; omega))
        have HD := fun w => Lib.hid (refDigit ((s[k + 1 + b].toNat : Nat) : Int) w (by omega) (by have := s[k + 1 + b].toNat_lt; omega))
        have HG3 := Lib.hid (HG.out hend)
        obtain ⟨l, hl'⟩ : ∃ l, letterI ((s[k + 1 + b].toNat : Nat) : Int) = l := ⟨_, rfl⟩
        obtain ⟨d, hd'⟩ : ∃ d, digitI ((s[k + 1 + b].toNat : Nat) : Int) = d := ⟨_, rfl⟩
        obtain ⟨q, hq'⟩ : ∃ q, (((s[k + 1 + b].toNat : Nat) : Int) == 61) = q := ⟨_, rfl⟩
        rw [hl'] at HLt HG3
        rw [hd'] at HD HG3
        rw [hq'] at HG3
        clear hl' hd' HG HG2
        have hlast2 : (((s[m].toNat : Nat) : Int) != 59) = true := hlast
        clear hlast
        cases q
        · cases l
          · cases d
            · have HR0 : Hid (R = T) := Lib.hid (by rw [HA.out, HG3.out]; rfl)
              clear HA HG3
              go_enter Tryd.func11, Tryd.ntmps11
              go_wp2_with (fail)
              refine (HR _).out.mono ?_
              rintro e w1 ⟨rfl, b1⟩
              go_wp2_with (fail)
              refine (HL _).out.mono ?_
              rintro e w2 ⟨rfl, n2, rfl⟩
              have b3 := b1.trans (dr_below w.heap.size w1 n2)
              go_wp2_with (first | (go_at_call 28; refine (HLt _).out.mono ?_; rintro e w' ⟨rfl, rfl⟩) | (go_at_call 29; refine (HD _).out.mono ?_; rintro e w' ⟨rfl, rfl⟩))
              refine (HV _).out.mono ?_
              rintro e w4 ⟨rfl, b4⟩
              go_wp2
              go_ret2
              rw [HR0.out]
              exact ⟨rfl, b3.trans (b4.mono b3.size)⟩
            · have HR0 : Hid (R = s.extract k (k + 1 + b)) := Lib.hid (by rw [HA.out, HG3.out]; rfl)
              clear HA HG3
              go_enter Tryd.func11, Tryd.ntmps11
              go_wp2_with (fail)
              refine (HR _).out.mono ?_
              rintro e w1 ⟨rfl, b1⟩
              go_wp2_with (fail)
              refine (HL _).out.mono ?_
              rintro e w2 ⟨rfl, n2, rfl⟩
              have b3 := b1.trans (dr_below w.heap.size w1 n2)
              go_wp2_with (first | (go_at_call 28; refine (HLt _).out.mono ?_; rintro e w' ⟨rfl, rfl⟩) | (go_at_call 29; refine (HD _).out.mono ?_; rintro e w' ⟨rfl, rfl⟩))
              go_ret2
              rw [HR0.out]
              exact ⟨rfl, b3⟩
          · have HR0 : Hid (R = s.extract k (k + 1 + b)) := Lib.hid (by rw [HA.out, HG3.out]; rfl)
            clear HA HG3
            go_enter Tryd.func11, Tryd.ntmps11
            go_wp2_with (fail)
            refine (HR _).out.mono ?_
            rintro e w1 ⟨rfl, b1⟩
            go_wp2_with (fail)
            refine (HL _).out.mono ?_
            rintro e w2 ⟨rfl, n2, rfl⟩
            have b3 := b1.trans (dr_below w.heap.size w1 n2)
            go_wp2_with (first | (go_at_call 28; refine (HLt _).out.mono ?_; rintro e w' ⟨rfl, rfl⟩) | (go_at_call 29; refine (HD _).out.mono ?_; rintro e w' ⟨rfl, rfl⟩))
            go_ret2
            rw [HR0.out]
            exact ⟨rfl, b3⟩
        · have HR0 : Hid (R = s.extract k (k + 1 + b)) := Lib.hid (by rw [HA.out, HG3.out]; rfl)
          clear HA HG3
          go_enter Tryd.func11, Tryd.ntmps11
          go_wp2_with (fail)
          refine (HR _).out.mono ?_
          rintro e w1 ⟨rfl, b1⟩
          go_wp2_with (fail)
          refine (HL _).out.mono ?_
          rintro e w2 ⟨rfl, n2, rfl⟩
          have b3 := b1.trans (dr_below w.heap.size w1 n2)
          go_wp2_with (first | (go_at_call 28; refine (HLt _).out.mono ?_; rintro e w' ⟨rfl, rfl⟩) | (go_at_call 29; refine (HD _).out.mono ?_; rintro e w' ⟨rfl, rfl⟩))
          go_ret2
          rw [HR0.out]
          exact ⟨rfl, b3⟩
      · have HR0 : Hid (R = T) := Lib.hid (by rw [HA.out, HG2.out hend]; rfl)
        clear HA HG HG2
        have hlast2 : (((s[m].toNat : Nat) : Int) != 59) = true := hlast
        clear hlast
        go_enter Tryd.func11, Tryd.ntmps11
        go_wp2_with (fail)
        refine (HR _).out.mono ?_
        rintro e w1 ⟨rfl, b1⟩
        go_wp2_with (fail)
        refine (HL _).out.mono ?_
        rintro e w2 ⟨rfl, n2, rfl⟩
        have b3 := b1.trans (dr_below w.heap.size w1 n2)
        go_wp2_with (fail)
        refine (HV _).out.mono ?_
        rintro e w4 ⟨rfl, b4⟩
        go_wp2
        go_ret2
        rw [HR0.out]
        exact ⟨rfl, b3.trans (b4.mono b3.size)⟩
    · have HR0 : Hid (R = T) := Lib.hid (by rw [HA.out]; cases g <;> rfl)
      clear HA HG HG2
      have hlast2 : (((s[m].toNat : Nat) : Int) != 59) = false := hlast
      clear hlast
      go_enter Tryd.func11, Tryd.ntmps11
      go_wp2_with (fail)
      refine (HR _).out.mono ?_
      rintro e w1 ⟨rfl, b1⟩
      go_wp2_with (fail)
      refine (HL _).out.mono ?_
      rintro e w2 ⟨rfl, n2, rfl⟩
      have b3 := b1.trans (dr_below w.heap.size w1 n2)
      go_wp2_with (fail)
      refine (HV _).out.mono ?_
      rintro e w4 ⟨rfl, b4⟩
      go_wp2
      go_ret2
      rw [HR0.out]
      exact ⟨rfl, b3.trans (b4.mono b3.size)⟩

/-- P7.1, the document's answer -/
theorem dc_any (s : ByteArray) (a : Int) (attr : Bool) (w : World) (hs : s.size ≤ 1099511627776) (_ha : -9223372036854775808 ≤ a ∧ a ≤ 9223372036854775807) :
    Calls Tryd.prog 11 #[.string s, .int .i64 a, .bool attr] w fun e w' => e = .returned (.tuple #[.string ⟨(rdT s.data.toList a attr).toArray⟩, .int .i64 (rdN s.data.toList a)]) ∧ Below w.heap.size w w' := by
  by_cases h : 0 ≤ a ∧ s.data.toList.getD a.toNat 0 = 38
  · obtain ⟨h0, h38⟩ := h
    obtain ⟨k, rfl⟩ : ∃ k : Nat, a = k := ⟨a.toNat, by omega⟩
    rw [show ((k : Nat) : Int).toNat = k by omega] at h38
    obtain ⟨e1, e2⟩ := rd_yes s.data.toList k attr h38
    rw [e1, e2]
    by_cases hr : isRef (s.data.toList.drop (k + 1)) 0 = true
    · exact dc_num s k attr w hs h38 hr
    · rw [Bool.not_eq_true] at hr
      by_cases hb : bestL nmRows (s.data.toList.drop (k + 1)) = 0
      · exact dc_just s k attr w hs h38 hr hb
      · exact dc_name s k attr w hs h38 hr hb
  · obtain ⟨e1, e2⟩ := rd_no s.data.toList a attr h
    rw [e1, e2]
    clear e1 e2
    by_cases h0 : a < 0
    · clear h
      go_enter Tryd.func11, Tryd.ntmps11
      go_wp2
      go_ret2
      exact ⟨rfl, Below.refl _ _⟩
    · obtain ⟨k, rfl⟩ : ∃ k : Nat, a = k := ⟨a.toNat, by omega⟩
      by_cases h1 : k < s.size
      · have b38 : (((s[k].toNat : Nat) : Int) != 38) = true := by
          rw [bne_iff_ne]
          intro e
          refine h ⟨by omega, ?_⟩
          rw [show ((k : Nat) : Int).toNat = k by omega, getD_is s k h1]
          exact u8_eq _ 38 (by decide) e
        clear h
        go_enter Tryd.func11, Tryd.ntmps11
        go_wp2
        go_ret2
        exact ⟨rfl, Below.refl _ _⟩
      · have h2 : (s.size : Int) ≤ (k : Int) := by omega
        clear h
        go_enter Tryd.func11, Tryd.ntmps11
        go_wp2
        go_ret2
        exact ⟨rfl, Below.refl _ _⟩
end Go.Proofs.YtdpgdcbclgdjaaaDoor
