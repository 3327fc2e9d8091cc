/-
  What package text's Begins, Next and Read answer, and what they ask of the packages behind.
-/
import Derived.Test.YtbcmfcddkegcoaaGreatDoorQA
import Derived.Test.YtbcmfcddkegcoaaGreatDoorQE
import Derived.Test.YtbcmfcddkegcoaaGreatDoorQF
import Derived.Test.YtbcmfcddkegcoaaGreatDoorP6
namespace Go.Proofs.YtbcmfcddkegcoaaGreatDoor
open Go.RowKit Go.Lib

theorem txTag_any (s : ByteArray) (a : Int) (w : World) (hs : s.size ≤ 1048576) (ha : -9223372036854775808 ≤ a ∧ a ≤ 9223372036854775807) (h : LaidAt w) :
    Calls Tryz.prog 72 #[.string s, .int .i64 a] w fun e w' => e = .returned (.bool (begV s.data.toList a)) ∧ Below w.heap.size w w' := tagBegins_any s a w hs ha h
theorem txCom_any (s : ByteArray) (a : Int) (w : World) (hs : s.size ≤ 1048576) (ha : -9223372036854775808 ≤ a ∧ a ≤ 9223372036854775807) (_h : LaidAt w) :
    Calls Tryz.prog 74 #[.string s, .int .i64 a] w fun e w' => e = .returned (.bool (cbegV s.data.toList a)) ∧ Below w.heap.size w w' := comBegins_any s a w hs ha trivial
theorem txDct_any (s : ByteArray) (a : Int) (w : World) (hs : s.size ≤ 1048576) (ha : -9223372036854775808 ≤ a ∧ a ≤ 9223372036854775807) (_h : LaidAt w) :
    Calls Tryz.prog 76 #[.string s, .int .i64 a] w fun e w' => e = .returned (.bool (dbegV s.data.toList a)) ∧ Below w.heap.size w w' := dctBegins_any s a w hs ha trivial
theorem txDec_any (s : ByteArray) (attr : Bool) (w : World) (hs : s.size ≤ 1048576) (h : LaidAt w) :
    Calls Tryz.prog 111 #[.string s, .bool attr] w fun e w' => e = .returned (.string ⟨(ddL attr s.data.toList).toArray⟩) ∧ Below w.heap.size w w' := decode_any s attr w (by omega) h.tab h.err
theorem txEmp_any (s : ByteArray) (a : Int) (w : World) (hs : s.size ≤ 1048576) (ha : -9223372036854775808 ≤ a ∧ a ≤ 9223372036854775807) (_h : LaidAt w) :
    Calls Tryz.prog 78 #[.string s, .int .i64 a, .string ⟨#[60, 47, 62]⟩] w fun e w' => e = .returned (.bool (ebegV s.data.toList a)) ∧ Below w.heap.size w w' := by
  have := begins s a ⟨#[60, 47, 62]⟩ w (by omega) (by decide) ha.1 ha.2
  rw [beg_emp] at this
  refine this.mono ?_
  rintro e w' ⟨rfl, n, rfl⟩
  exact ⟨rfl, dr_below _ _ _⟩

set_option maxRecDepth 100000 in
set_option maxHeartbeats 1000000 in
theorem nameless_any (s : ByteArray) (a : Int) (w : World) (hs : s.size ≤ 1048576) (ha : -9223372036854775808 ≤ a ∧ a ≤ 9223372036854775807) (h : LaidAt w) :
    Calls Tryz.prog 157 #[.string s, .int .i64 a] w fun e w' => e = .returned (.bool (ebegV s.data.toList a)) ∧ Below w.heap.size w w' := by
  have HB := Lib.hid (txEmp_any s a w hs ha h)
  clear ha h
  go_enter Tryz.func157, Tryz.ntmps157
  go_wp2_with (fail)
  refine HB.out.mono ?_
  rintro e w1 ⟨rfl, b1⟩
  go_wp2
  go_ret
  exact ⟨rfl, b1⟩

set_option maxRecDepth 100000 in
set_option maxHeartbeats 1000000 in
theorem txWithin_any (s : ByteArray) (a : Int) (w : World) (_hs : s.size ≤ 1048576) (ha : -9223372036854775808 ≤ a ∧ a ≤ 9223372036854775807) :
    Calls Tryz.prog 109 #[.string s, .int .i64 a] w fun e w' => e = .returned (.int .i64 (atN s.data.toList a : Int)) ∧ w' = w := by
  obtain ⟨k, hk⟩ : ∃ k, atN s.data.toList a = k := ⟨_, rfl⟩
  have hmx : max (0 : Int) (min a (s.size : Int)) = (k : Int) := by
    rw [← hk, Lib.size_eq]; unfold atN; omega
  rw [hk]; clear hk
  go_enter Tryz.func109, Tryz.ntmps109
  go_wp2
  go_ret
  exact ⟨ret_int (by first | exact hmx | omega), rfl⟩

set_option maxRecDepth 100000 in
set_option maxHeartbeats 1000000 in
theorem markup_any (w : World) :
    Calls Tryz.prog 142 #[] w fun e w' => e = .returned (.slice (some ⟨w.heap.size, 0, none⟩) 4 4) ∧
      w'.heap[w.heap.size]? = some (.cells #[.func (.func 72) #[] #[], .func (.func 74) #[] #[], .func (.func 76) #[] #[], .func (.func 157) #[] #[]] 156) ∧ Below w.heap.size w w' := by
  go_enter Tryz.func142, Tryz.ntmps142
  go_wp2
  go_ret
  exact ⟨rfl, heap_alloc_new w _, (Below.refl _ w).alloc (Nat.le_refl _) _⟩

set_option maxRecDepth 100000 in
set_option maxHeartbeats 2000000 in
/-- P14.1 -/
theorem txtBegins_any (s : ByteArray) (a : Int) (w : World) (hs : s.size ≤ 1048576) (ha : -9223372036854775808 ≤ a ∧ a ≤ 9223372036854775807) (h : LaidAt w) :
    Calls Tryz.prog 130 #[.string s, .int .i64 a] w fun e w' => e = .returned (.bool (mkV s.data.toList a)) ∧ Below w.heap.size w w' := by
  have HW := Lib.hid h
  have K1 := fun w h => Lib.hid (txTag_any s a w hs ha h)
  have K2 := fun w h => Lib.hid (txCom_any s a w hs ha h)
  have K3 := fun w h => Lib.hid (txDct_any s a w hs ha h)
  have K4 := fun w h => Lib.hid (nameless_any s a w hs ha h)
  rw [mk_four]
  generalize begV s.data.toList a = b1 at *
  generalize cbegV s.data.toList a = b2 at *
  generalize dbegV s.data.toList a = b3 at *
  generalize ebegV s.data.toList a = b4 at *
  clear ha h hs
  go_enter Tryz.func130, Tryz.ntmps130
  go_wp2_with (go_at_call 142; refine (markup_any _).mono ?_; rintro e w1 ⟨rfl, hb1, B1⟩; have HB1 := Lib.hid hb1; clear hb1)
  go_loopw [9] (fun v wr => ∃ i : Int, v = .int .i64 i ∧ (i = 0 ∨ i = 1 ∨ i = 2 ∨ i = 3 ∨ i = 4) ∧ Below w.heap.size w wr ∧ Hid (wr.heap[w.heap.size]? = some (.cells #[.func (.func 72) #[] #[], .func (.func 74) #[] #[], .func (.func 76) #[] #[], .func (.func 157) #[] #[]] 156)) ∧
      Hid ((1 ≤ i → b1 = false) ∧ (2 ≤ i → b2 = false) ∧ (3 ≤ i → b3 = false) ∧ (4 ≤ i → b4 = false))) (fun v _ => 4 - (intOf v).toNat)
  case atStart => exact ⟨0, rfl, .inl rfl, B1, HB1, Lib.hid ⟨fun h => absurd h (by decide), fun h => absurd h (by decide), fun h => absurd h (by decide), fun h => absurd h (by decide)⟩⟩
  case round =>
    obtain ⟨i, rfl, hi, hb, HC, HN⟩ := hrel
    have HB := Lib.hid hb
    have hlt : w.heap.size < wr.heap.size := (Array.getElem?_eq_some_iff.1 HC.out).1
    have HL := Lib.hid (HW.out.below hb)
    clear hb
    rcases hi with rfl | rfl | rfl | rfl | rfl
    · have c0 : wr.cell? ⟨w.heap.size, 0, none⟩ = some (.func (.func 72) #[] #[]) := by rw [cell_of_row _ _ _ _ _ _ HC.out]; rfl
      cases b1
      · go_wp2_with (go_at_call 72; refine (K1 _ HL.out).out.mono ?_; rintro e w2 ⟨rfl, d2⟩)
        go_roundw
        case rel => exact ⟨1, rfl, .inr (.inl rfl), HB.out.trans (d2.mono HB.out.size), Lib.hid ((d2.block _ hlt).trans HC.out), Lib.hid (by simp)⟩
        case measure => simp [intOf]
      · go_wp2_with (go_at_call 72; refine (K1 _ HL.out).out.mono ?_; rintro e w2 ⟨rfl, d2⟩)
        go_ret
        exact ⟨ret_bool (by simp), HB.out.trans (d2.mono HB.out.size)⟩
    · obtain rfl := HN.out.1 (by decide)
      have c0 : wr.cell? ⟨w.heap.size, 1, none⟩ = some (.func (.func 74) #[] #[]) := by rw [cell_of_row _ _ _ _ _ _ HC.out]; rfl
      cases b2
      · go_wp2_with (go_at_call 74; refine (K2 _ HL.out).out.mono ?_; rintro e w2 ⟨rfl, d2⟩)
        go_roundw
        case rel => exact ⟨2, rfl, .inr (.inr (.inl rfl)), HB.out.trans (d2.mono HB.out.size), Lib.hid ((d2.block _ hlt).trans HC.out), Lib.hid (by simp)⟩
        case measure => simp [intOf]
      · go_wp2_with (go_at_call 74; refine (K2 _ HL.out).out.mono ?_; rintro e w2 ⟨rfl, d2⟩)
        go_ret
        exact ⟨ret_bool (by simp), HB.out.trans (d2.mono HB.out.size)⟩
    · obtain rfl := HN.out.1 (by decide)
      obtain rfl := HN.out.2.1 (by decide)
      have c0 : wr.cell? ⟨w.heap.size, 2, none⟩ = some (.func (.func 76) #[] #[]) := by rw [cell_of_row _ _ _ _ _ _ HC.out]; rfl
      cases b3
      · go_wp2_with (go_at_call 76; refine (K3 _ HL.out).out.mono ?_; rintro e w2 ⟨rfl, d2⟩)
        go_roundw
        case rel => exact ⟨3, rfl, .inr (.inr (.inr (.inl rfl))), HB.out.trans (d2.mono HB.out.size), Lib.hid ((d2.block _ hlt).trans HC.out), Lib.hid (by simp)⟩
        case measure => simp [intOf]
      · go_wp2_with (go_at_call 76; refine (K3 _ HL.out).out.mono ?_; rintro e w2 ⟨rfl, d2⟩)
        go_ret
        exact ⟨ret_bool (by simp), HB.out.trans (d2.mono HB.out.size)⟩
    · obtain rfl := HN.out.1 (by decide)
      obtain rfl := HN.out.2.1 (by decide)
      obtain rfl := HN.out.2.2.1 (by decide)
      have c0 : wr.cell? ⟨w.heap.size, 3, none⟩ = some (.func (.func 157) #[] #[]) := by rw [cell_of_row _ _ _ _ _ _ HC.out]; rfl
      cases b4
      · go_wp2_with (go_at_call 157; refine (K4 _ HL.out).out.mono ?_; rintro e w2 ⟨rfl, d2⟩)
        go_roundw
        case rel => exact ⟨4, rfl, .inr (.inr (.inr (.inr rfl))), HB.out.trans (d2.mono HB.out.size), Lib.hid ((d2.block _ hlt).trans HC.out), Lib.hid (by simp)⟩
        case measure => simp [intOf]
      · go_wp2_with (go_at_call 157; refine (K4 _ HL.out).out.mono ?_; rintro e w2 ⟨rfl, d2⟩)
        go_ret
        exact ⟨ret_bool (by simp), HB.out.trans (d2.mono HB.out.size)⟩
    · obtain rfl := HN.out.1 (by decide)
      obtain rfl := HN.out.2.1 (by decide)
      obtain rfl := HN.out.2.2.1 (by decide)
      obtain rfl := HN.out.2.2.2 (by decide)
      go_wp2
      go_ret
      exact ⟨ret_bool (by simp), HB.out⟩

theorem txStep (s : ByteArray) (k : Nat) (h : k < s.size) (hm : mkB (s.data.toList.drop k) = false) : nextV s.data.toList ((k + 1 : Nat) : Int) = nextV s.data.toList (k : Int) := by
  rw [next_in s k (by omega), next_in s (k + 1) (by omega), next_step s k h hm]
theorem txStop (s : ByteArray) (k : Nat) (h : k < s.size) (hm : mkB (s.data.toList.drop k) = true) : nextV s.data.toList (k : Int) = k := by
  rw [next_in s k (by omega), next_stop s k hm]
theorem txClamp (s : Txt) (a : Int) : nextV s ((atN s a : Nat) : Int) = nextV s a := by
  have h := atN_le s a
  unfold nextV
  rw [atN_in _ _ h]

set_option maxRecDepth 100000 in
set_option maxHeartbeats 2000000 in
/-- P14.2: where the next markup begins -/
theorem txtNext_any (s : ByteArray) (a : Int) (w : World) (hs : s.size ≤ 1048576) (ha : -9223372036854775808 ≤ a ∧ a ≤ 9223372036854775807) (h : LaidAt w) :
    Calls Tryz.prog 110 #[.string s, .int .i64 a] w fun e w' => e = .returned (.int .i64 (nextV s.data.toList a : Int)) ∧ Below w.heap.size w w' := by
  have HW := Lib.hid h
  have HB := fun (i : Nat) (h : i < s.size) w hl => Lib.hid (txtBegins_any s (i : Int) w hs (by omega) hl)
  simp only [mk_in] at HB
  have HA := fun w => Lib.hid (txWithin_any s a w hs ha)
  have hcl := txClamp s.data.toList a
  have hal := atN_le s.data.toList a
  obtain ⟨k, hk⟩ : ∃ k, atN s.data.toList a = k := ⟨_, rfl⟩
  obtain ⟨R, hR⟩ : ∃ R, nextV s.data.toList a = R := ⟨_, rfl⟩
  rw [hk] at HA hcl hal
  rw [hR] at hcl ⊢
  rw [← Lib.size_eq] at hal
  have HI0 := Lib.hid hcl
  clear ha h hcl hk hR
  go_enter Tryz.func110, Tryz.ntmps110
  go_wp2_with (go_at_call 109; refine (HA _).out.mono ?_; rintro e w1 ⟨rfl, rfl⟩)
  go_loopw [1] (fun v wr => ∃ i : Nat, v = .int .i64 (i : Int) ∧ i ≤ s.size ∧ Below w1.heap.size w1 wr ∧ Hid (nextV s.data.toList (i : Int) = R)) (fun v _ => s.size - (intOf v).toNat)
  case atStart => exact ⟨k, rfl, hal, Below.refl _ _, HI0⟩
  case round =>
    obtain ⟨i, rfl, hi, hb, HI⟩ := hrel
    have hi2 : i ≤ 1048576 := by omega
    have HBW := Lib.hid hb
    have HL := Lib.hid (HW.out.below hb)
    clear hb
    by_cases hlt : i < s.size
    · have HC := fun w hl => HB i hlt w hl
      by_cases c60 : s[i] = 60
      · have b60 : (((s[i].toNat : Nat) : Int) == 60) = true := by rw [c60]; rfl
        cases hbb : mkB (s.data.toList.drop i)
        · have HN := Lib.hid ((txStep s i hlt hbb).trans HI.out)
          rw [hbb] at HC
          clear hbb HB c60
          go_wp2_with (go_at_call 130; refine (HC _ HL.out).out.mono ?_; rintro e w2 ⟨rfl, d2⟩)
          go_roundw
          case rel => exact ⟨i + 1, by go_num, by omega, HBW.out.trans (d2.mono HBW.out.size), HN⟩
          case measure => simp [intOf]; omega
        · have HN := Lib.hid ((txStop s i hlt hbb).symm.trans HI.out)
          rw [hbb] at HC
          clear hbb HB c60
          go_wp2_with (go_at_call 130; refine (HC _ HL.out).out.mono ?_; rintro e w2 ⟨rfl, d2⟩)
          go_ret
          exact ⟨ret_int (by rw [HN.out]), HBW.out.trans (d2.mono HBW.out.size)⟩
      · have b60 : (((s[i].toNat : Nat) : Int) == 60) = false := by
          rw [beq_eq_false_iff_ne]; exact fun h => c60 (u8_eq _ 60 (by decide) h)
        have hbb : mkB (s.data.toList.drop i) = false := by
          rw [Bool.eq_false_iff]; intro e
          obtain ⟨t, e⟩ := mk_head _ e
          rw [drop_at s i hlt] at e
          exact c60 (List.cons.inj e).1
        have HN := Lib.hid ((txStep s i hlt hbb).trans HI.out)
        clear hbb HB HC c60
        go_wp2
        go_roundw
        case rel => exact ⟨i + 1, by go_num, by omega, HBW.out, HN⟩
        case measure => simp [intOf]; omega
    · obtain rfl : i = s.size := by omega
      have HN : Hid (R = s.size) := Lib.hid (by rw [← HI.out, next_far _ _ (by rw [← Lib.size_eq]; omega), ← Lib.size_eq])
      go_wp2
      go_ret
      exact ⟨ret_int (by rw [HN.out]), HBW.out⟩

set_option maxRecDepth 100000 in
set_option maxHeartbeats 1000000 in
/-- P14.2 -/
theorem txtRead_any (s : ByteArray) (a : Int) (w : World) (hs : s.size ≤ 1048576) (ha : -9223372036854775808 ≤ a ∧ a ≤ 9223372036854775807) (h : LaidAt w) :
    Calls Tryz.prog 79 #[.string s, .int .i64 a] w fun e w' => e = .returned (.tuple #[.string ⟨(txtV s.data.toList a).toArray⟩, .int .i64 (nextV s.data.toList a : Int)]) ∧ Below w.heap.size w w' := by
  have HW := Lib.hid h
  have HA := fun w => Lib.hid (txWithin_any s a w hs ha)
  obtain ⟨k, hk⟩ : ∃ k, atN s.data.toList a = k := ⟨_, rfl⟩
  have hks : k ≤ s.size := by rw [← hk, Lib.size_eq]; exact atN_le _ _
  have hkk : k ≤ 1048576 := by omega
  rw [hk] at HA
  have HN := fun w hl => Lib.hid (txtNext_any s (k : Int) w hs (by omega) hl)
  have hcl := txClamp s.data.toList a
  rw [hk] at hcl
  rw [hcl] at HN
  have hv : txtV s.data.toList a = ddL false (s.extract k (nextV s.data.toList a)).data.toList := by
    unfold txtV
    rw [hk, Lib.extract_data, show nextV s.data.toList a - k = nextN (s.data.toList.drop k) by unfold nextV; rw [hk]; omega]
  have htop := next_top s.data.toList a
  rw [hk, ← Lib.size_eq] at htop
  rw [hv]
  obtain ⟨N, hN⟩ : ∃ N, nextV s.data.toList a = N := ⟨_, rfl⟩
  rw [hN] at HN htop ⊢
  obtain ⟨ht1, ht2⟩ := htop
  have HD := fun w hl => Lib.hid (txDec_any (s.extract k N) false w (by rw [ByteArray.size_extract]; omega) hl)
  obtain ⟨T, hT⟩ : ∃ T : ByteArray, (⟨(ddL false (s.extract k N).data.toList).toArray⟩ : ByteArray) = T := ⟨_, rfl⟩
  rw [hT] at HD ⊢
  have hN2 : N ≤ 1048576 := by omega
  clear hk hcl hv hN hT ha h
  go_enter Tryz.func79, Tryz.ntmps79
  go_wp2_with (go_at_call 109; refine (HA _).out.mono ?_; rintro e w1 ⟨rfl, hw1⟩)
  obtain rfl := hw1
  go_wp2_with (fail)
  refine (HN _ HW.out).out.mono ?_
  rintro e w2 ⟨rfl, c2⟩
  have C2 := Lib.hid c2
  clear c2
  go_wp2_with (fail)
  refine (HD _ (HW.out.below C2.out)).out.mono ?_
  rintro e w3 ⟨rfl, c3⟩
  go_wp2
  go_ret2
  exact ⟨rfl, C2.out.trans (c3.mono C2.out.size)⟩
end Go.Proofs.YtbcmfcddkegcoaaGreatDoor
