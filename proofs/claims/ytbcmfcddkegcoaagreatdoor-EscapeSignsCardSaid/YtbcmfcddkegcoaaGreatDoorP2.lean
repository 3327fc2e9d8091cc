/-
  Texts laid together: NumMath, NumCode, NumRead, NumRef, NumRefB, NumAwake, NumList, NumDec.
-/
import Derived.Test.YtbcmfcddkegcoaaGreatDoorP1
import Derived.Below
import Derived.Laws.BitsAllLaws
/-! What digits are, and what reference by a number stands at a place: plain mathematics. -/
namespace Go.Proofs.YtbcmfcddkegcoaaGreatDoor
open Go.RowKit Go.Lib

/-- the greatest number that is kept, and one more -/
def capN (n : Nat) : Nat := if 1114111 < n then 1114112 else n
/-- one digit more -/
def stepN (b n : Nat) (c : UInt8) : Nat := capN (n * b + (hexI (c.toNat : Int)).toNat)
/-- whether a byte is a digit of a base -/
def isDig (b : Nat) (c : UInt8) : Bool := decide (0 ≤ hexI (c.toNat : Int) ∧ hexI (c.toNat : Int) < (b : Int))
/-- what digits are -/
def valD (b : Nat) (l : List UInt8) : Nat := l.foldl (stepN b) 0
/-- the digits that stand ahead -/
def digs (b : Nat) (l : List UInt8) : List UInt8 := l.takeWhile (isDig b)

theorem capN_le (n : Nat) : capN n ≤ 1114112 := by unfold capN; split <;> omega
theorem valD_le (b : Nat) (l : List UInt8) : valD b l ≤ 1114112 := by
  rcases List.eq_nil_or_concat l with rfl | ⟨i, x, rfl⟩
  · exact Nat.zero_le _
  · rw [List.concat_eq_append]
    unfold valD
    rw [List.foldl_append]
    exact capN_le _
theorem valD_snoc (b : Nat) (l : List UInt8) (c : UInt8) : valD b (l ++ [c]) = stepN b (valD b l) c := by
  unfold valD; rw [List.foldl_append]; rfl
theorem hex_range (q : Int) (h0 : 0 ≤ q) (h1 : q < 256) : hexI q = -1 ∨ 0 ≤ hexI q ∧ hexI q < 16 := by
  unfold hexI
  split
  · omega
  · split
    · omega
    · split <;> omega
theorem take_snoc (s : ByteArray) (k : Nat) (h : k < s.size) : s.data.toList.take (k + 1) = s.data.toList.take k ++ [s[k]] := by
  rw [List.take_succ_eq_append_getElem (by rw [← Lib.size_eq]; exact h)]; rfl
theorem digs_stop (b : Nat) (s : ByteArray) (k : Nat) (hd : ∀ c ∈ s.data.toList.take k, isDig b c = true) (h : ∀ h : k < s.size, isDig b s[k] = false) :
    digs b s.data.toList = s.data.toList.take k := by
  have e : digs b (s.data.toList.take k ++ s.data.toList.drop k) = s.data.toList.take k := by
    unfold digs
    rw [List.takeWhile_append_of_pos hd]
    by_cases hlt : k < s.size
    · rw [drop_at s k hlt, List.takeWhile_cons_of_neg (by rw [h hlt]; exact Bool.false_ne_true), List.append_nil]
    · rw [List.drop_eq_nil_of_le (by rw [← Lib.size_eq]; omega), List.takeWhile_nil, List.append_nil]
  rwa [List.take_append_drop] at e
theorem digs_len (b : Nat) (l : List UInt8) : (digs b l).length ≤ l.length := (List.takeWhile_sublist _).length_le
/-- the sixteen and ten digits -/
def baseN (x : Bool) : Nat := if x then 16 else 10
/-- the older signs -/
def tabL : List Int := [8364, 129, 8218, 402, 8222, 8230, 8224, 8225, 710, 8240, 352, 8249, 338, 141, 381, 143, 144, 8216, 8217, 8220, 8221, 8226, 8211, 8212, 732, 8482, 353, 8250, 339, 157, 382, 376]
def fixN (n : Int) : Int := if n = 0 then -1 else if 128 ≤ n ∧ n < 160 then tabL.getD (n - 128).toNat 0 else n
/-- the sign that a number means -/
def fixS (n : Int) : ByteArray := ⟨(encodeRune (fixN n)).toArray⟩

/-- whether x or X stands at a place -/
def isX (l : List UInt8) (k : Nat) : Bool := decide (l.getD k 0 = 120 ∨ l.getD k 0 = 88)
/-- where digits begin, with # at k -/
def fromN (l : List UInt8) (k : Nat) : Nat := if isX l (k + 1) then k + 2 else k + 1
/-- the digits of a reference with # at k -/
def digsAt (l : List UInt8) (k : Nat) : List UInt8 := digs (baseN (isX l (k + 1))) (l.drop (fromN l k))
/-- where it ends -/
def endN (l : List UInt8) (k : Nat) : Nat := if l.getD (fromN l k + (digsAt l k).length) 0 = 59 then fromN l k + (digsAt l k).length + 1 else fromN l k + (digsAt l k).length
/-- whether a reference by a number stands at a place -/
def isRef (l : List UInt8) (a : Int) : Bool := decide (0 ≤ a ∧ l.getD a.toNat 0 = 35 ∧ digsAt l a.toNat ≠ [])
/-- its number -/
def refN (l : List UInt8) (k : Nat) : Nat := valD (baseN (isX l (k + 1))) (digsAt l k)

theorem lowB_one (c d : UInt8) (hd : d = 35 ∨ d = 59) : (lowB c = d) ↔ c = d := by
  have h := lowB_int c
  unfold lowI at h
  rw [← UInt8.toNat_inj, ← UInt8.toNat_inj]
  rcases hd with rfl | rfl
  · rw [show (35 : UInt8).toNat = 35 from rfl]; split at h <;> omega
  · rw [show (59 : UInt8).toNat = 59 from rfl]; split at h <;> omega
theorem lowB_x (c : UInt8) : (lowB c = 120) ↔ c = 120 ∨ c = 88 := by
  have h := lowB_int c
  unfold lowI at h
  rw [← UInt8.toNat_inj, ← UInt8.toNat_inj, ← UInt8.toNat_inj, show (120 : UInt8).toNat = 120 from rfl, show (88 : UInt8).toNat = 88 from rfl]
  split at h <;> omega
/-- what one byte at a place is -/
theorem begS_one (s : ByteArray) (k : Nat) (d : UInt8) (hd : d ≠ 0) : begS s (k : Int) ⟨#[d]⟩ = decide (lowB (s.data.toList.getD k 0) = d) := by
  unfold begS
  rw [show ((k : Nat) : Int).toNat = k by omega, show (ByteArray.mk #[d]).data.toList = [d] from rfl]
  by_cases h : k < s.size
  · rw [drop_at s k h, lowL_cons, decide_eq_true (by omega), Bool.true_and, List.isPrefixOf_cons_cons]
    have e : s.data.toList.getD k 0 = s[k] := by
      rw [List.getD_eq_getElem?_getD, List.getElem?_eq_getElem (by rw [← Lib.size_eq]; exact h)]; rfl
    rw [e]
    simp only [List.isPrefixOf_nil_left, Bool.and_true]
    rw [Bool.eq_iff_iff, beq_iff_eq, decide_eq_true_iff]
    exact eq_comm
  · have e : s.data.toList.getD k 0 = 0 := by
      rw [List.getD_eq_getElem?_getD, List.getElem?_eq_none (by rw [← Lib.size_eq]; omega)]; rfl
    rw [List.drop_eq_nil_of_le (by rw [← Lib.size_eq]; omega), e]
    rw [show lowL [] = [] from rfl, show List.isPrefixOf [d] [] = false from rfl, Bool.and_false]
    exact (decide_eq_false (fun h => hd h.symm)).symm
theorem begS_neg (s : ByteArray) (a : Int) (low : ByteArray) (h : a < 0) : begS s a low = false := by
  unfold begS; rw [decide_eq_false (by omega)]; rfl
theorem getD_size (s : ByteArray) (k : Nat) (h : s.data.toList.getD k 0 ≠ 0) : k < s.size := by
  rcases Nat.lt_or_ge k s.size with h1 | h1
  · exact h1
  · exact absurd (by rw [List.getD_eq_getElem?_getD, List.getElem?_eq_none (by rw [← Lib.size_eq]; omega)]; rfl) h
theorem getD_is (s : ByteArray) (k : Nat) (h : k < s.size) : s.data.toList.getD k 0 = s[k] := by
  rw [List.getD_eq_getElem?_getD, List.getElem?_eq_getElem (by rw [← Lib.size_eq]; exact h)]; rfl
theorem isX_size (s : ByteArray) (k : Nat) (h : isX s.data.toList k = true) : k < s.size := by
  unfold isX at h
  rw [decide_eq_true_eq] at h
  refine getD_size s k ?_
  rcases h with h | h <;> rw [h] <;> decide
theorem from_le (s : ByteArray) (k : Nat) (h : k < s.size) : fromN s.data.toList k ≤ s.size ∧ k + 1 ≤ fromN s.data.toList k := by
  unfold fromN
  by_cases hx : isX s.data.toList (k + 1) = true
  · rw [if_pos hx]; have := isX_size s _ hx; omega
  · rw [if_neg hx]; omega
theorem digsAt_le (s : ByteArray) (k : Nat) (h : k < s.size) : fromN s.data.toList k + (digsAt s.data.toList k).length ≤ s.size := by
  have h1 := from_le s k h
  have h2 := digs_len (baseN (isX s.data.toList (k + 1))) (s.data.toList.drop (fromN s.data.toList k))
  rw [List.length_drop, ← Lib.size_eq] at h2
  unfold digsAt
  omega
theorem end_le (s : ByteArray) (k : Nat) (h : k < s.size) : endN s.data.toList k ≤ s.size ∧ fromN s.data.toList k + (digsAt s.data.toList k).length ≤ endN s.data.toList k := by
  have h2 := digsAt_le s k h
  unfold endN
  split
  · rename_i h3
    have := getD_size s _ (by rw [h3]; decide)
    omega
  · omega

end Go.Proofs.YtbcmfcddkegcoaaGreatDoor

/-! What package number's digits come to, added as a complex number of floats. -/
namespace Go.Proofs.YtbcmfcddkegcoaaGreatDoor
open Go.RowKit Go.Lib

/-- the float of a base -/
def baseF (x : Bool) : Nat := if x then 4625196817309499392 else 4621819117588971520
theorem baseF_fl (x : Bool) : fl (baseN x) = baseF x := by
  cases x
  · exact fl_10
  · exact fl_16
theorem base_le (x : Bool) : baseN x ≤ 16 := by cases x <;> decide

theorem op_mul (x : Bool) (n : Nat) (hn : n ≤ 1114112) (t : TypeId) (w : World) :
    (binOp .mul t (.float .f64 (fl n)) (.float .f64 (baseF x))).run Tryz.prog w = .ok (.float .f64 (fl (n * baseN x))) w := by
  have hb := base_le x
  have hm : n * baseN x ≤ 1114112 * 16 := Nat.mul_le_mul hn hb
  rw [← baseF_fl]
  exact run_float_arith w .mul t .f64 _ _ _ (fl_mul _ _ (by omega) (by omega) (by omega))
theorem op_sum (a d k : Nat) (ha : a ≤ 17825792) (hd : d < 16) (hk : k ≤ 1099511627776) (t : TypeId) (w : World) :
    (binOp .add t (.complex .f64 (fl a) (fl k)) (.complex .f64 (fl d) 4607182418800017408)).run Tryz.prog w = .ok (.complex .f64 (fl (a + d)) (fl (k + 1))) w := by
  refine run_complex_sum w .add (.inl rfl) t .f64 _ _ _ _ _ _ ?_
  rw [← fl_1, cSumBits, fl_add a d (by omega), fl_add k 1 (by omega)]; rfl
theorem lt_zero (d : Nat) (hd : d < 16) : (FloatKind.f64.format.order (fl d) 0 == some .lt) = false := by
  rw [← fl_0, fl_order d 0 (by omega) (by omega)]
  by_cases h : d = 0
  · subst h; decide
  · rw [Nat.compare_eq_gt.2 (by omega)]; rfl
theorem ge_base (x : Bool) (d : Nat) (hd : d < 16) : (FloatKind.f64.format.order (fl d) (baseF x) == some .gt || FloatKind.f64.format.order (fl d) (baseF x) == some .eq) = decide (baseN x ≤ d) := by
  have hb := base_le x
  rw [← baseF_fl, fl_order d _ (by omega) (by omega)]
  rcases Nat.lt_trichotomy d (baseN x) with h | h | h
  · rw [Nat.compare_eq_lt.2 h, decide_eq_false (by omega)]; rfl
  · rw [Nat.compare_eq_eq.2 h, decide_eq_true (by omega)]; rfl
  · rw [Nat.compare_eq_gt.2 h, decide_eq_true (by omega)]; rfl
theorem gt_most (n : Nat) (hn : n < 2 ^ 53) : (FloatKind.f64.format.order (fl n) 4697535882029170688 == some .gt) = decide (1114111 < n) := by
  rw [← fl_most, fl_order n _ hn (by decide)]
  rcases Nat.lt_trichotomy n 1114111 with h | h | h
  · rw [Nat.compare_eq_lt.2 h, decide_eq_false (by omega)]; rfl
  · rw [Nat.compare_eq_eq.2 h, decide_eq_false (by omega)]; rfl
  · rw [Nat.compare_eq_gt.2 h, decide_eq_true (by omega)]; rfl

theorem dig_no (b : Nat) (c : UInt8) (h : hexI (c.toNat : Int) = -1) : isDig b c = false := by
  unfold isDig; rw [h]; exact decide_eq_false (by omega)
theorem dig_over (b : Nat) (c : UInt8) (d : Nat) (h : hexI (c.toNat : Int) = (d : Int)) (hd : b ≤ d) : isDig b c = false := by
  unfold isDig; rw [h]; exact decide_eq_false (by omega)
theorem dig_yes (b : Nat) (c : UInt8) (d : Nat) (h : hexI (c.toNat : Int) = (d : Int)) (hd : d < b) : isDig b c = true := by
  unfold isDig; rw [h]; exact decide_eq_true (by omega)
theorem step_of (b n : Nat) (c : UInt8) (d : Nat) (h : hexI (c.toNat : Int) = (d : Int)) : stepN b n c = capN (n * b + d) := by
  unfold stepN; rw [h]; rfl
theorem take_more (b : Nat) (s : ByteArray) (k : Nat) (h : k < s.size) (hd : ∀ c ∈ s.data.toList.take k, isDig b c = true) (hc : isDig b s[k] = true) : ∀ c ∈ s.data.toList.take (k + 1), isDig b c = true := by
  rw [take_snoc s k h]
  intro c hm
  rcases List.mem_append.1 hm with hm | hm
  · exact hd c hm
  · rw [List.mem_singleton.1 hm]; exact hc

set_option maxRecDepth 100000 in
set_option maxHeartbeats 1000000 in
theorem added (s : ByteArray) (x : Bool) (w : World) (hs : s.size ≤ 1099511627776) :
    Calls Tryz.prog 158 #[.string s, .bool x] w fun e w' => e = .returned (.complex .f64 (fl (valD (baseN x) (digs (baseN x) s.data.toList))) (fl (digs (baseN x) s.data.toList).length)) ∧ w = w' := by
  obtain ⟨b, hb⟩ : ∃ b, baseN x = b := ⟨_, rfl⟩
  obtain ⟨V, hV⟩ : ∃ V, fl (valD b (digs b s.data.toList)) = V := ⟨_, rfl⟩
  obtain ⟨C, hC⟩ : ∃ C, fl (digs b s.data.toList).length = C := ⟨_, rfl⟩
  have HV := Lib.hid hV
  have HC := Lib.hid hC
  have HB : b ≤ 16 := by rw [← hb]; exact base_le x
  have HM : Hid (∀ n, n ≤ 1114112 → ∀ t w, (binOp .mul t (.float .f64 (fl n)) (.float .f64 (baseF x))).run Tryz.prog w = .ok (.float .f64 (fl (n * b))) w) := Lib.hid (by rw [← hb]; exact op_mul x)
  have HG : Hid (∀ d, d < 16 → (FloatKind.f64.format.order (fl d) (baseF x) == some .gt || FloatKind.f64.format.order (fl d) (baseF x) == some .eq) = decide (b ≤ d)) := Lib.hid (by rw [← hb]; exact ge_base x)
  rw [hb, hV, hC]
  obtain ⟨B, hB⟩ : ∃ B, baseF x = B := ⟨_, rfl⟩
  rw [hB] at HM HG
  have hx : x = false ∧ B = 4621819117588971520 ∨ x = true ∧ B = 4625196817309499392 := by
    cases x
    · exact .inl ⟨rfl, hB.symm⟩
    · exact .inr ⟨rfl, hB.symm⟩
  clear hV hC hb hB
  have F0 : Hid (fl 0 = 0) := Lib.hid fl_0
  rcases hx with ⟨rfl, rfl⟩ | ⟨rfl, rfl⟩
  all_goals
    go_enter Tryz.func158, Tryz.ntmps158
    go_wp2
    go_loopw [6, 12] (fun z v wr => ∃ k : Nat, k ≤ s.size ∧ v = .int .i64 (k : Int) ∧ z = .complex .f64 (fl (valD b (s.data.toList.take k))) (fl k) ∧ (∀ c ∈ s.data.toList.take k, isDig b c = true) ∧ w = wr) (fun _ v _ => s.size - (intOf v).toNat)
    case atStart => exact ⟨0, Nat.zero_le _, rfl, by rw [List.take_zero, show valD b [] = 0 from rfl, F0.out], by simp, rfl⟩
    case round =>
      obtain ⟨k, hk, rfl, rfl, hd, rfl⟩ := hrel
      have HD := Lib.hid hd
      clear hd
      obtain ⟨n, hn⟩ : ∃ n, valD b (s.data.toList.take k) = n := ⟨_, rfl⟩
      have hn0 : n ≤ 1114112 := by rw [← hn]; exact valD_le _ _
      have HN := Lib.hid hn
      rw [hn]
      clear hn
      by_cases hlt : k < s.size
      · have hc := s[k].toNat_lt
        rcases hex_range (s[k].toNat : Int) (by omega) (by omega) with h | h
        · have HX := Lib.hid h
          have hl := fl_less
          clear h
          go_wp2_with (fail)
          refine (hex _ _ (by omega) (by omega)).mono ?_
          rintro e w1 ⟨rfl, rfl⟩
          rw [HX.out]
          go_wp2
          go_ret
          have e := digs_stop b s k HD.out (fun h => dig_no b _ HX.out)
          exact ⟨by rw [← HV.out, ← HC.out, e, HN.out, List.length_take, Nat.min_eq_left (by rw [← Lib.size_eq]; exact hk)]; rfl, rfl⟩
        · obtain ⟨d, hd⟩ : ∃ d : Nat, hexI (s[k].toNat : Int) = (d : Int) := ⟨(hexI (s[k].toNat : Int)).toNat, by omega⟩
          rw [hd] at h
          have hd16 : d < 16 := by omega
          have HX := Lib.hid hd
          clear h hd
          have hfo := fl_of d
          have hz := lt_zero d hd16
          by_cases hlb : b ≤ d
          · have hg : (FloatKind.f64.format.order (fl d) _ == some .gt || FloatKind.f64.format.order (fl d) _ == some .eq) = true := (HG.out d hd16).trans (decide_eq_true hlb)
            go_wp2_with (fail)
            refine (hex _ _ (by omega) (by omega)).mono ?_
            rintro e w1 ⟨rfl, rfl⟩
            rw [HX.out]
            go_wp2
            go_ret
            have e := digs_stop b s k HD.out (fun h => dig_over b _ d HX.out hlb)
            exact ⟨by rw [← HV.out, ← HC.out, e, HN.out, List.length_take, Nat.min_eq_left (by rw [← Lib.size_eq]; exact hk)]; rfl, rfl⟩
          · have hg : (FloatKind.f64.format.order (fl d) _ == some .gt || FloatKind.f64.format.order (fl d) _ == some .eq) = false := (HG.out d hd16).trans (decide_eq_false hlb)
            have hm := HM.out n hn0
            have hnb : n * b ≤ 1114112 * 16 := Nat.mul_le_mul hn0 HB
            have hsm := op_sum (n * b) d k (by omega) hd16 (by omega)
            have hmost := gt_most (n * b + d) (by omega)
            have HY := Lib.hid (dig_yes b s[k] d HX.out (by omega))
            have HS : Hid (valD b (s.data.toList.take (k + 1)) = capN (n * b + d)) := Lib.hid (by rw [take_snoc s k hlt, valD_snoc, HN.out, step_of b n _ d HX.out])
            by_cases hcap : 1114111 < n * b + d
            · rw [decide_eq_true hcap] at hmost
              have HK := Lib.hid (show capN (n * b + d) = 1114112 by unfold capN; rw [if_pos hcap])
              clear hcap hnb
              go_wp2_with (fail)
              refine (hex _ _ (by omega) (by omega)).mono ?_
              rintro e w1 ⟨rfl, rfl⟩
              rw [HX.out]
              go_wp2
              go_roundw
              case rel => exact ⟨k + 1, by omega, by go_num, by rw [HS.out, HK.out, fl_more], take_more b s k hlt HD.out HY.out, trivial⟩
              case measure => simp [intOf]; omega
            · rw [decide_eq_false hcap] at hmost
              have HK := Lib.hid (show capN (n * b + d) = n * b + d by unfold capN; rw [if_neg hcap])
              clear hcap hnb
              go_wp2_with (fail)
              refine (hex _ _ (by omega) (by omega)).mono ?_
              rintro e w1 ⟨rfl, rfl⟩
              rw [HX.out]
              go_wp2
              go_roundw
              case rel => exact ⟨k + 1, by omega, by go_num, by rw [HS.out, HK.out], take_more b s k hlt HD.out HY.out, trivial⟩
              case measure => simp [intOf]; omega
      · go_wp2
        go_ret
        have e := digs_stop b s k HD.out (fun h => absurd h hlt)
        exact ⟨by rw [← HV.out, ← HC.out, e, HN.out, List.length_take, Nat.min_eq_left (by rw [← Lib.size_eq]; exact hk)]; rfl, rfl⟩
end Go.Proofs.YtbcmfcddkegcoaaGreatDoor

/-! What package number's Fix, Value and Read answer, for every input. -/
namespace Go.Proofs.YtbcmfcddkegcoaaGreatDoor
open Go.RowKit Go.Lib

/-- the program's table stands as it was laid -/
def TabAt (w : World) : Prop := 1 < w.heap.size ∧ ∀ i, i < 32 → w.cell? ⟨1, i, none⟩ = some (.int .i64 (tabL.getD i 0))
theorem TabAt.below {w w' : World} (h : TabAt w) (hb : Below w.heap.size w w') : TabAt w' :=
  ⟨Nat.lt_of_lt_of_le h.1 hb.size, fun i hi => by rw [hb.cell (p := ⟨1, i, none⟩) h.1]; exact h.2 i hi⟩
theorem TabAt.drawn {w : World} (h : TabAt w) (n : Nat) : TabAt (w.drewN n) := ⟨h.1, h.2⟩

theorem fixS_bad (n : Int) (h : fixN n < 0) : fixS n = ⟨#[239, 191, 189]⟩ := by
  unfold fixS; rw [encodeRune, encodeRuneZ_bad (.inl h)]; rfl

set_option maxRecDepth 100000 in
set_option maxHeartbeats 1000000 in
theorem fix (n : Int) (w : World) (h0 : -9223372036854775808 ≤ n) (h1 : n ≤ 9223372036854775807) (hT : TabAt w) :
    Calls Tryz.prog 159 #[.int .i64 n] w fun e w' => e = .returned (.string (fixS n)) ∧ w = w' := by
  by_cases hz : n = 0
  · subst hz
    have HB := Lib.hid (fixS_bad 0 (by decide))
    go_enter Tryz.func159, Tryz.ntmps159
    go_wp2
    go_ret
    exact ⟨ret_str HB.out.symm, rfl⟩
  have hz' : (n == 0) = false := by simpa using hz
  by_cases hr : 128 ≤ n ∧ n < 160
  · obtain ⟨i, hi⟩ : ∃ i : Nat, n = 128 + (i : Int) := ⟨(n - 128).toNat, by omega⟩
    subst hi
    have hi : i < 32 := by omega
    have HF : Hid (fixS (128 + (i : Int)) = ⟨(encodeRune (tabL.getD i 0)).toArray⟩) := Lib.hid (by
      unfold fixS fixN; rw [if_neg hz, if_pos hr, show (128 + (i : Int) - 128).toNat = i by omega])
    have hc := hT.2 i hi
    obtain ⟨q, hq⟩ : ∃ q, tabL.getD i 0 = q := ⟨_, rfl⟩
    rw [hq] at hc HF
    obtain ⟨hr1, hr2⟩ := hr
    have ii : (i : Int) < 32 := by omega
    clear hz hT hq
    rw [HF.out]
    go_enter Tryz.func159, Tryz.ntmps159
    go_wp2_with (fail)
    refine (sgn_any _ _).mono ?_
    rintro e w1 ⟨rfl, rfl⟩
    go_wp2
    go_ret
    exact ⟨rfl, rfl⟩
  · have HF : Hid (fixS n = ⟨(encodeRune n).toArray⟩) := Lib.hid (by
      unfold fixS fixN; rw [if_neg hz, if_neg hr])
    rw [HF.out]
    by_cases h2 : 128 ≤ n
    · have h3 : 160 ≤ n := by omega
      clear hz hr
      go_enter Tryz.func159, Tryz.ntmps159
      go_wp2_with (fail)
      refine (sgn_any _ _).mono ?_
      rintro e w1 ⟨rfl, rfl⟩
      go_wp2
      go_ret
      exact ⟨rfl, rfl⟩
    · have h3 : n < 128 := by omega
      clear hz hr
      go_enter Tryz.func159, Tryz.ntmps159
      go_wp2_with (fail)
      refine (sgn_any _ _).mono ?_
      rintro e w1 ⟨rfl, rfl⟩
      go_wp2
      go_ret
      exact ⟨rfl, rfl⟩

theorem op_int (n : Nat) (hn : n < 2 ^ 53) (w : World) : (convert 165 3 (.float .f64 (fl n))).run Tryz.prog w = .ok (.int .i64 (n : Int)) w :=
  run_convert_float_int w 165 3 .f64 .i64 (fl n) n (by rw [Tryz.underlying165]; rfl) Tryz.underlying3 (fl_int n hn)

/-- what stands behind a place -/
theorem behind (s : ByteArray) (k : Nat) : (s.extract k s.size).data.toList = s.data.toList.drop k := by
  rw [extract_data, List.take_of_length_le (by rw [List.length_drop, ← Lib.size_eq]; omega)]
theorem eq_zero (c : Nat) (hc : c < 2 ^ 53) : (FloatKind.f64.format.order (fl c) 0 == some .eq) = decide (c = 0) := by
  have e := fl_order c 0 hc (by decide)
  rw [fl_0] at e
  rw [e]
  by_cases h : c = 0
  · subst h; decide
  · rw [Nat.compare_eq_gt.2 (by omega), decide_eq_false h]; rfl
theorem beg_59 (s : ByteArray) (e : Nat) (a : Int) (ha : a = (e : Int)) : begS s a ⟨#[59]⟩ = decide (s.data.toList.getD e 0 = 59) := by
  rw [ha, begS_one s e 59 (by decide), decide_eq_decide]; exact lowB_one _ _ (.inr rfl)
set_option maxRecDepth 100000 in
set_option maxHeartbeats 1000000 in
/-- # stands there, and no digit -/
theorem read_none (s : ByteArray) (k : Nat) (w : World) (hs : s.size ≤ 1099511627776) (h35 : s.data.toList.getD k 0 = 35) (hne : digsAt s.data.toList k = []) :
    Calls Tryz.prog 143 #[.string s, .int .i64 (k : Int)] w fun e w' => e = .returned (.tuple #[.string ⟨#[]⟩, .int .i64 (k : Int), .bool false]) ∧ ∃ n, w' = w.drewN n := by
  have hk : k < s.size := getD_size s k (by rw [h35]; decide)
  have HB0 : Hid (begS s (k : Int) ⟨#[35]⟩ = true) := Lib.hid (by
    rw [begS_one s k 35 (by decide), decide_eq_true_eq]; exact (lowB_one _ _ (.inl rfl)).2 h35)
  obtain ⟨X, hX⟩ : ∃ X, isX s.data.toList (k + 1) = X := ⟨_, rfl⟩
  have HBX : Hid (begS s ((k : Int) + 1) ⟨#[120]⟩ = X) := Lib.hid (by
    rw [show (k : Int) + 1 = ((k + 1 : Nat) : Int) by omega, begS_one s (k + 1) 120 (by decide), ← hX, isX, decide_eq_decide]; exact lowB_x _)
  have hlt := digsAt_le s k hk
  have hq := (eq_zero 0 (by decide)).trans (decide_eq_true rfl)
  have HN := Lib.hid hne
  rw [hne] at hlt
  clear h35 hne
  have HX := Lib.hid hX
  clear hX
  cases X
  · have HF : Hid (fromN s.data.toList k = k + 1) := Lib.hid (by unfold fromN; rw [HX.out]; rfl)
    rw [HF.out] at hlt
    have g1 : (k : Int) + 1 ≤ (s.size : Int) := by omega
    have hD : digs (baseN false) (s.extract (k + 1) s.size).data.toList = digsAt s.data.toList k := by
      rw [behind]; unfold digsAt; rw [HX.out, HF.out]
    have HD := Lib.hid hD
    clear hD
    go_enter Tryz.func143, Tryz.ntmps143
    go_wp2_with (fail)
    refine (begins s _ ⟨#[35]⟩ _ hs (by decide) (by omega) (by omega)).mono ?_
    rintro e w1 ⟨rfl, n1, rfl⟩
    rw [HB0.out]
    go_wp2_with (fail)
    refine (begins s _ ⟨#[120]⟩ _ hs (by decide) (by omega) (by omega)).mono ?_
    rintro e w1 ⟨rfl, n2, rfl⟩
    rw [HBX.out]
    go_wp2_with (fail)
    refine (added _ _ _ (by rw [ByteArray.size_extract]; omega)).mono ?_
    rintro e w1 ⟨rfl, rfl⟩
    rw [HD.out, HN.out]
    go_wp2
    go_ret3
    exact ⟨rfl, _, rfl⟩
  · have HF : Hid (fromN s.data.toList k = k + 1 + 1) := Lib.hid (by unfold fromN; rw [HX.out]; rfl)
    rw [HF.out] at hlt
    have g1 : (k : Int) + 1 ≤ (s.size : Int) := by omega
    have g2 : (k : Int) + 1 + 1 ≤ (s.size : Int) := by have := (isX_size s _ HX.out); omega
    have hD : digs (baseN true) (s.extract (k + 1 + 1) s.size).data.toList = digsAt s.data.toList k := by
      rw [behind]; unfold digsAt; rw [HX.out, HF.out]
    have HD := Lib.hid hD
    clear hD
    go_enter Tryz.func143, Tryz.ntmps143
    go_wp2_with (fail)
    refine (begins s _ ⟨#[35]⟩ _ hs (by decide) (by omega) (by omega)).mono ?_
    rintro e w1 ⟨rfl, n1, rfl⟩
    rw [HB0.out]
    go_wp2_with (fail)
    refine (begins s _ ⟨#[120]⟩ _ hs (by decide) (by omega) (by omega)).mono ?_
    rintro e w1 ⟨rfl, n2, rfl⟩
    rw [HBX.out]
    go_wp2_with (fail)
    refine (added _ _ _ (by rw [ByteArray.size_extract]; omega)).mono ?_
    rintro e w1 ⟨rfl, rfl⟩
    rw [HD.out, HN.out]
    go_wp2
    go_ret3
    exact ⟨rfl, _, rfl⟩

set_option maxRecDepth 100000 in
set_option maxHeartbeats 1000000 in
theorem read_yes (s : ByteArray) (k : Nat) (w : World) (hs : s.size ≤ 1099511627776) (hr : isRef s.data.toList (k : Int) = true) (hT : TabAt w) :
    Calls Tryz.prog 143 #[.string s, .int .i64 (k : Int)] w fun e w' => e = .returned (.tuple #[.string (fixS (refN s.data.toList k)), .int .i64 (endN s.data.toList k : Nat), .bool true]) ∧ ∃ n, w' = w.drewN n := by
  unfold isRef at hr
  rw [decide_eq_true_eq, show ((k : Nat) : Int).toNat = k by omega] at hr
  obtain ⟨-, h35, hne⟩ := hr
  have hk : k < s.size := getD_size s k (by rw [h35]; decide)
  have HB0 : Hid (begS s (k : Int) ⟨#[35]⟩ = true) := Lib.hid (by
    rw [begS_one s k 35 (by decide), decide_eq_true_eq]; exact (lowB_one _ _ (.inl rfl)).2 h35)
  obtain ⟨X, hX⟩ : ∃ X, isX s.data.toList (k + 1) = X := ⟨_, rfl⟩
  have HBX : Hid (begS s ((k : Int) + 1) ⟨#[120]⟩ = X) := Lib.hid (by
    rw [show (k : Int) + 1 = ((k + 1 : Nat) : Int) by omega, begS_one s (k + 1) 120 (by decide), ← hX, isX, decide_eq_decide]; exact lowB_x _)
  have hlt := digsAt_le s k hk
  obtain ⟨R, hR⟩ : ∃ R, fixS (refN s.data.toList k) = R := ⟨_, rfl⟩
  obtain ⟨E, hE⟩ : ∃ E, endN s.data.toList k = E := ⟨_, rfl⟩
  have hvl := valD_le (baseN (isX s.data.toList (k + 1))) (digsAt s.data.toList k)
  obtain ⟨v, hv⟩ : ∃ v, refN s.data.toList k = v := ⟨_, rfl⟩
  rw [← refN, hv] at hvl
  obtain ⟨c, hc⟩ : ∃ c, (digsAt s.data.toList k).length = c := ⟨_, rfl⟩
  have hc0 : c ≠ 0 := fun h => hne (List.length_eq_zero_iff.1 (hc.trans h))
  rw [hc] at hlt
  have HR := Lib.hid hR
  have HE := Lib.hid hE
  have HV := Lib.hid hv
  have HC := Lib.hid hc
  have hq := (eq_zero c (by omega)).trans (decide_eq_false hc0)
  have hvi := op_int v (by omega)
  have hci := op_int c (by omega)
  rw [hR, hE]
  clear h35 hR hE hv hc hc0 hne
  have HX := Lib.hid hX
  clear hX
  cases X
  · have HF : Hid (fromN s.data.toList k = k + 1) := Lib.hid (by unfold fromN; rw [HX.out]; rfl)
    rw [HF.out] at hlt
    have g1 : (k : Int) + 1 ≤ (s.size : Int) := by omega
    have hD : digs (baseN false) (s.extract (k + 1) s.size).data.toList = digsAt s.data.toList k := by
      rw [behind]; unfold digsAt; rw [HX.out, HF.out]
    have HD := Lib.hid hD
    clear hD
    go_enter Tryz.func143, Tryz.ntmps143
    go_wp2_with (fail)
    refine (begins s _ ⟨#[35]⟩ _ hs (by decide) (by omega) (by omega)).mono ?_
    rintro e w1 ⟨rfl, n1, rfl⟩
    rw [HB0.out]
    go_wp2_with (fail)
    refine (begins s _ ⟨#[120]⟩ _ hs (by decide) (by omega) (by omega)).mono ?_
    rintro e w1 ⟨rfl, n2, rfl⟩
    rw [HBX.out]
    go_wp2_with (fail)
    refine (added _ _ _ (by rw [ByteArray.size_extract]; omega)).mono ?_
    rintro e w1 ⟨rfl, rfl⟩
    rw [HD.out, HC.out, show valD (baseN false) (digsAt s.data.toList k) = v by rw [← HV.out, refN, HX.out]]
    by_cases h59 : s.data.toList.getD (k + 1 + c) 0 = 59
    · have HS : Hid (begS s ((k : Int) + 1 + (c : Int)) ⟨#[59]⟩ = true) := Lib.hid (by rw [beg_59 s (k + 1 + c) _ (by omega), decide_eq_true h59])
      have HEE : Hid (E = k + 1 + c + 1) := Lib.hid (by rw [← HE.out]; unfold endN; rw [HF.out, HC.out, if_pos h59])
      clear h59
      go_wp2_with (fail)
      refine (begins s _ ⟨#[59]⟩ _ hs (by decide) (by omega) (by omega)).mono ?_
      rintro e w1 ⟨rfl, n3, rfl⟩
      rw [HS.out]
      go_wp2_with (fail)
      refine (fix v _ (by omega) (by omega) (hT.drawn _)).mono ?_
      rintro e w1 ⟨rfl, rfl⟩
      go_wp2
      go_ret3
      exact ⟨by rw [← HR.out, HV.out, HEE.out]; simp, _, rfl⟩
    · have HS : Hid (begS s ((k : Int) + 1 + (c : Int)) ⟨#[59]⟩ = false) := Lib.hid (by rw [beg_59 s (k + 1 + c) _ (by omega), decide_eq_false h59])
      have HEE : Hid (E = k + 1 + c) := Lib.hid (by rw [← HE.out]; unfold endN; rw [HF.out, HC.out, if_neg h59])
      clear h59
      go_wp2_with (fail)
      refine (begins s _ ⟨#[59]⟩ _ hs (by decide) (by omega) (by omega)).mono ?_
      rintro e w1 ⟨rfl, n3, rfl⟩
      rw [HS.out]
      go_wp2_with (fail)
      refine (fix v _ (by omega) (by omega) (hT.drawn _)).mono ?_
      rintro e w1 ⟨rfl, rfl⟩
      go_wp2
      go_ret3
      exact ⟨by rw [← HR.out, HV.out, HEE.out]; simp, _, rfl⟩
  · have HF : Hid (fromN s.data.toList k = k + 1 + 1) := Lib.hid (by unfold fromN; rw [HX.out]; rfl)
    rw [HF.out] at hlt
    have g1 : (k : Int) + 1 ≤ (s.size : Int) := by omega
    have g2 : (k : Int) + 1 + 1 ≤ (s.size : Int) := by have := (isX_size s _ HX.out); omega
    have hD : digs (baseN true) (s.extract (k + 1 + 1) s.size).data.toList = digsAt s.data.toList k := by
      rw [behind]; unfold digsAt; rw [HX.out, HF.out]
    have HD := Lib.hid hD
    clear hD
    go_enter Tryz.func143, Tryz.ntmps143
    go_wp2_with (fail)
    refine (begins s _ ⟨#[35]⟩ _ hs (by decide) (by omega) (by omega)).mono ?_
    rintro e w1 ⟨rfl, n1, rfl⟩
    rw [HB0.out]
    go_wp2_with (fail)
    refine (begins s _ ⟨#[120]⟩ _ hs (by decide) (by omega) (by omega)).mono ?_
    rintro e w1 ⟨rfl, n2, rfl⟩
    rw [HBX.out]
    go_wp2_with (fail)
    refine (added _ _ _ (by rw [ByteArray.size_extract]; omega)).mono ?_
    rintro e w1 ⟨rfl, rfl⟩
    rw [HD.out, HC.out, show valD (baseN true) (digsAt s.data.toList k) = v by rw [← HV.out, refN, HX.out]]
    by_cases h59 : s.data.toList.getD (k + 1 + 1 + c) 0 = 59
    · have HS : Hid (begS s ((k : Int) + 1 + 1 + (c : Int)) ⟨#[59]⟩ = true) := Lib.hid (by rw [beg_59 s (k + 1 + 1 + c) _ (by omega), decide_eq_true h59])
      have HEE : Hid (E = k + 1 + 1 + c + 1) := Lib.hid (by rw [← HE.out]; unfold endN; rw [HF.out, HC.out, if_pos h59])
      clear h59
      go_wp2_with (fail)
      refine (begins s _ ⟨#[59]⟩ _ hs (by decide) (by omega) (by omega)).mono ?_
      rintro e w1 ⟨rfl, n3, rfl⟩
      rw [HS.out]
      go_wp2_with (fail)
      refine (fix v _ (by omega) (by omega) (hT.drawn _)).mono ?_
      rintro e w1 ⟨rfl, rfl⟩
      go_wp2
      go_ret3
      exact ⟨by rw [← HR.out, HV.out, HEE.out]; simp, _, rfl⟩
    · have HS : Hid (begS s ((k : Int) + 1 + 1 + (c : Int)) ⟨#[59]⟩ = false) := Lib.hid (by rw [beg_59 s (k + 1 + 1 + c) _ (by omega), decide_eq_false h59])
      have HEE : Hid (E = k + 1 + 1 + c) := Lib.hid (by rw [← HE.out]; unfold endN; rw [HF.out, HC.out, if_neg h59])
      clear h59
      go_wp2_with (fail)
      refine (begins s _ ⟨#[59]⟩ _ hs (by decide) (by omega) (by omega)).mono ?_
      rintro e w1 ⟨rfl, n3, rfl⟩
      rw [HS.out]
      go_wp2_with (fail)
      refine (fix v _ (by omega) (by omega) (hT.drawn _)).mono ?_
      rintro e w1 ⟨rfl, rfl⟩
      go_wp2
      go_ret3
      exact ⟨by rw [← HR.out, HV.out, HEE.out]; simp, _, rfl⟩

/-- what Read tells -/
def txtR (l : List UInt8) (a : Int) : ByteArray := if isRef l a then fixS (refN l a.toNat) else ⟨#[]⟩
def nxtR (l : List UInt8) (a : Int) : Int := if isRef l a then (endN l a.toNat : Nat) else a
theorem txtR_no {l : List UInt8} {a : Int} (h : isRef l a = false) : txtR l a = ⟨#[]⟩ := by unfold txtR; rw [h]; rfl
theorem nxtR_no {l : List UInt8} {a : Int} (h : isRef l a = false) : nxtR l a = a := by unfold nxtR; rw [h]; rfl
theorem txtR_yes {l : List UInt8} {k : Nat} (h : isRef l (k : Int) = true) : txtR l (k : Int) = fixS (refN l k) := by unfold txtR; rw [h]; rfl
theorem nxtR_yes {l : List UInt8} {k : Nat} (h : isRef l (k : Int) = true) : nxtR l (k : Int) = (endN l k : Nat) := by unfold nxtR; rw [h]; rfl

set_option maxRecDepth 100000 in
set_option maxHeartbeats 1000000 in
theorem read (s : ByteArray) (a : Int) (w : World) (hs : s.size ≤ 1099511627776) (ha : -9223372036854775808 ≤ a) (hb : a ≤ 9223372036854775807) (hT : TabAt w) :
    Calls Tryz.prog 143 #[.string s, .int .i64 a] w fun e w' => e = .returned (.tuple #[.string (txtR s.data.toList a), .int .i64 (nxtR s.data.toList a), .bool (isRef s.data.toList a)]) ∧ ∃ n, w' = w.drewN n := by
  by_cases hr : isRef s.data.toList a = true
  · have h0 : 0 ≤ a := by
      unfold isRef at hr
      rw [decide_eq_true_eq] at hr
      exact hr.1
    obtain ⟨k, rfl⟩ : ∃ k : Nat, a = k := ⟨a.toNat, by omega⟩
    rw [txtR_yes hr, nxtR_yes hr, hr]
    exact read_yes s k w hs hr hT
  · have hr' : isRef s.data.toList a = false := by simpa using hr
    rw [txtR_no hr', nxtR_no hr', hr']
    by_cases hq : 0 ≤ a ∧ s.data.toList.getD a.toNat 0 = 35
    · obtain ⟨h0, h35⟩ := hq
      obtain ⟨k, rfl⟩ : ∃ k : Nat, a = k := ⟨a.toNat, by omega⟩
      rw [show ((k : Nat) : Int).toNat = k by omega] at h35
      refine read_none s k w hs h35 ?_
      unfold isRef at hr'
      rw [decide_eq_false_iff_not, show ((k : Nat) : Int).toNat = k by omega] at hr'
      by_cases hd : digsAt s.data.toList k = []
      · exact hd
      · exact absurd ⟨h0, h35, hd⟩ hr'
    · have HB : Hid (begS s a ⟨#[35]⟩ = false) := Lib.hid (by
        by_cases h0 : a < 0
        · exact begS_neg s a _ h0
        · obtain ⟨k, rfl⟩ : ∃ k : Nat, a = k := ⟨a.toNat, by omega⟩
          rw [begS_one s k 35 (by decide), decide_eq_false_iff_not]
          intro h
          refine hq ⟨by omega, ?_⟩
          rw [show ((k : Nat) : Int).toNat = k by omega]
          exact (lowB_one _ _ (.inl rfl)).1 h)
      clear hr hr' hq
      go_enter Tryz.func143, Tryz.ntmps143
      go_wp2_with (fail)
      refine (begins s _ ⟨#[35]⟩ _ hs (by decide) ha hb).mono ?_
      rintro e w1 ⟨rfl, n1, rfl⟩
      rw [HB.out]
      go_wp2
      go_ret3
      exact ⟨rfl, _, rfl⟩

end Go.Proofs.YtbcmfcddkegcoaaGreatDoor

/-! What the document's answers for package number are, for every input: the same. -/
namespace Go.Proofs.YtbcmfcddkegcoaaGreatDoor
open Go.RowKit Go.Lib

end Go.Proofs.YtbcmfcddkegcoaaGreatDoor

/-! What the document's Read answers, for every input: the same. -/
namespace Go.Proofs.YtbcmfcddkegcoaaGreatDoor
open Go.RowKit Go.Lib

theorem digs_at (b : Nat) (L : List UInt8) (j : Nat) (hd : ∀ c ∈ L.take j, isDig b c = true) (h : L.drop j = [] ∨ ∃ c t, L.drop j = c :: t ∧ isDig b c = false) : digs b L = L.take j := by
  have e : digs b (L.take j ++ L.drop j) = L.take j := by
    unfold digs
    rw [List.takeWhile_append_of_pos hd]
    rcases h with h | ⟨c, t, h, hc⟩
    · rw [h, List.takeWhile_nil, List.append_nil]
    · rw [h, List.takeWhile_cons_of_neg (by rw [hc]; exact Bool.false_ne_true), List.append_nil]
  rwa [List.take_append_drop] at e
end Go.Proofs.YtbcmfcddkegcoaaGreatDoor

/-! The document's Read for any place; the chapter's examples of layer 4; numbers written with ten digits. -/
namespace Go.Proofs.YtbcmfcddkegcoaaGreatDoor
open Go.RowKit Go.Lib

end Go.Proofs.YtbcmfcddkegcoaaGreatDoor

/-! References written out: '#' and digits, with ten and with sixteen; numbers written with ten digits; zeros ahead; a reference and no more: plain mathematics. -/
namespace Go.Proofs.YtbcmfcddkegcoaaGreatDoor
open Go.RowKit Go.Lib

theorem getD_0 (x : UInt8) (t : List UInt8) : (x :: t).getD 0 0 = x := rfl
theorem getD_1 (x : UInt8) (t : List UInt8) (k : Nat) : (x :: t).getD (k + 1) 0 = t.getD k 0 := rfl
theorem digs_tail (b : Nat) (D tail : List UInt8) (hD : ∀ c ∈ D, isDig b c = true) (ht : tail = [] ∨ ∃ c t, tail = c :: t ∧ isDig b c = false) : digs b (D ++ tail) = D := by
  have h := digs_at b (D ++ tail) D.length (by rw [List.take_left']; exact hD; rfl) (by rw [List.drop_left']; exact ht; rfl)
  rwa [List.take_left' rfl] at h
theorem getD_app (D tail : List UInt8) : (D ++ tail).getD D.length 0 = tail.getD 0 0 := by
  rw [List.getD_eq_getElem?_getD, List.getElem?_append_right (Nat.le_refl _), Nat.sub_self, List.getD_eq_getElem?_getD]

/-- '#' and ten digits -/
theorem ref_ten (D tail : List UInt8) (hD : ∀ c ∈ D, isDig 10 c = true) (hne : D ≠ []) (ht : tail = [] ∨ ∃ c t, tail = c :: t ∧ isDig 10 c = false) :
    txtR (35 :: (D ++ tail)) 0 = fixS (valD 10 D) ∧ nxtR (35 :: (D ++ tail)) 0 = (if tail.getD 0 0 = 59 then (D.length : Int) + 2 else (D.length : Int) + 1) ∧ isRef (35 :: (D ++ tail)) 0 = true := by
  have hx : isX (35 :: (D ++ tail)) 1 = false := by
    cases D with
    | nil => exact absurd rfl hne
    | cons c t =>
      have hc := hD c (List.mem_cons_self ..)
      unfold isX
      rw [getD_1, List.cons_append, getD_0, decide_eq_false_iff_not]
      rintro (rfl | rfl)
      · revert hc; decide
      · revert hc; decide
  have hf : fromN (35 :: (D ++ tail)) 0 = 1 := by unfold fromN; rw [hx]; rfl
  have hd : digsAt (35 :: (D ++ tail)) 0 = D := by
    unfold digsAt
    rw [hx, hf]
    exact digs_tail 10 D tail hD ht
  have hr : isRef (35 :: (D ++ tail)) ((0 : Nat) : Int) = true := by
    unfold isRef
    refine decide_eq_true ⟨by decide, rfl, ?_⟩
    rw [show ((0 : Nat) : Int).toNat = 0 from rfl, hd]; exact hne
  have h1 := txtR_yes hr
  have h2 := nxtR_yes hr
  refine ⟨?_, ?_, hr⟩
  · refine h1.trans ?_
    unfold refN
    rw [hx, hd]; rfl
  · refine h2.trans ?_
    unfold endN
    rw [hf, hd, Nat.add_comm 1, getD_1, getD_app]
    split <;> omega
theorem fixS_len (n : Int) : 1 ≤ (fixS n).size ∧ (fixS n).size ≤ 4 := by
  have h := enc_len (fixN n)
  have e : (fixS n).size = (encodeRune (fixN n)).length := by rw [Lib.size_eq]; rfl
  rw [e]; exact h

theorem endN_eq (l : List UInt8) (k : Nat) : endN l k = if l.getD (fromN l k + (digsAt l k).length) 0 = 59 then fromN l k + (digsAt l k).length + 1 else fromN l k + (digsAt l k).length := rfl
/-- behind a reference that ends in no semicolon stands no digit and no semicolon -/
theorem ref_stop (s : ByteArray) (k : Nat) (hr : isRef s.data.toList (k : Int) = true) :
    k + 1 < endN s.data.toList k ∧ endN s.data.toList k ≤ s.size ∧ ∀ (h1 : endN s.data.toList k - 1 < s.size) (h2 : endN s.data.toList k < s.size), ((s[endN s.data.toList k - 1].toNat : Nat) : Int) ≠ 59 →
      ¬ (48 ≤ ((s[endN s.data.toList k].toNat : Nat) : Int) ∧ ((s[endN s.data.toList k].toNat : Nat) : Int) ≤ 57) ∧ ((s[endN s.data.toList k].toNat : Nat) : Int) ≠ 59 := by
  unfold isRef at hr
  rw [decide_eq_true_eq, show ((k : Nat) : Int).toNat = k by omega] at hr
  obtain ⟨-, h35, hne⟩ := hr
  have hk : k < s.size := getD_size s k (by rw [h35]; decide)
  have hlen : 0 < (digsAt s.data.toList k).length := List.length_pos_iff.2 hne
  have he := end_le s k hk
  have hf := from_le s k hk
  refine ⟨by omega, he.1, ?_⟩
  intro h1 h2 h3
  obtain ⟨e, hee⟩ : ∃ e, fromN s.data.toList k + (digsAt s.data.toList k).length = e := ⟨_, rfl⟩
  have hE : endN s.data.toList k = if s.data.toList.getD e 0 = 59 then e + 1 else e := by rw [← hee]; rfl
  by_cases h59 : s.data.toList.getD e 0 = 59
  · rw [if_pos h59] at hE
    exfalso
    apply h3
    have e1 : s[endN s.data.toList k - 1] = s.data.toList.getD e 0 := by
      rw [getD_is s e (by omega)]
      congr 1; omega
    rw [e1, h59]; rfl
  · rw [if_neg h59] at hE
    have hlt : e < s.size := by omega
    have e1 : s[endN s.data.toList k] = s[e] := by congr 1
    rw [e1]
    have hd : isDig (baseN (isX s.data.toList (k + 1))) s[e] = false := by
      have hdp : digsAt s.data.toList k ++ (s.data.toList.drop (fromN s.data.toList k)).dropWhile (isDig (baseN (isX s.data.toList (k + 1)))) = s.data.toList.drop (fromN s.data.toList k) := List.takeWhile_append_dropWhile
      have hdr : (s.data.toList.drop (fromN s.data.toList k)).dropWhile (isDig (baseN (isX s.data.toList (k + 1)))) = s[e] :: s.data.toList.drop (e + 1) := by
        have := congrArg (List.drop (digsAt s.data.toList k).length) hdp
        rw [List.drop_left' rfl, List.drop_drop, hee, drop_at s e hlt] at this
        exact this
      have h4 := List.head?_dropWhile_not (isDig (baseN (isX s.data.toList (k + 1)))) (s.data.toList.drop (fromN s.data.toList k))
      rw [hdr] at h4
      simpa using h4
    constructor
    · intro h
      have hh : hexI (s[e].toNat : Int) = (s[e].toNat : Int) - 48 := by unfold hexI; rw [if_pos h]
      unfold isDig at hd
      rw [hh, decide_eq_false_iff_not] at hd
      have : (10 : Int) ≤ (baseN (isX s.data.toList (k + 1)) : Int) := by cases isX s.data.toList (k + 1) <;> decide
      omega
    · intro h
      apply h59
      rw [getD_is s e hlt]
      exact u8_eq _ 59 (by decide) h
end Go.Proofs.YtbcmfcddkegcoaaGreatDoor

/-! The document's numbers written with ten digits, for every number that fits 32 bits. -/
namespace Go.Proofs.YtbcmfcddkegcoaaGreatDoor
open Go.RowKit Go.Lib

end Go.Proofs.YtbcmfcddkegcoaaGreatDoor
