/-
  What the document's Begins of layer 3 answers, for every input.
-/
import Derived.Test.YtloabbfahpgbcaaSignRef
import Derived.Deep.RegionHeld3
namespace Go.Proofs.Ytloabbfahpgbcaa
open Go.RowKit Go.Lib

theorem i64_wrap (x : Int) (h0 : -9223372036854775808 ≤ x) (h1 : x ≤ 9223372036854775807) : IntKind.i64.wrap x = x := by rw [IntKind.wrap_i64]; omega
theorem cmp_one (s low : ByteArray) (a k : Nat) (h1 : k < low.size) (h2 : a + k < s.size) :
    ((lowS (s.extract (a + k) (a + k + 1))).toList == (low.extract k (k + 1)).toList) = decide (lowI (s[a + k].toNat : Int) = (low[k].toNat : Int)) := by
  rw [str_beq, lowS_list, extract_one s (a + k) h2, extract_one low k h1]
  congr 1
  have := lowB_int s[a + k]
  rw [← this, show lowL [s[a + k]] = [lowB s[a + k]] from rfl]
  simp only [List.cons.injEq, and_true]
  rw [← UInt8.toNat_inj, Int.ofNat_inj]
set_option maxRecDepth 100000 in
set_option maxHeartbeats 4000000 in
theorem refBegins (s : ByteArray) (a : Int) (low : ByteArray) (w : World) (hs : s.size ≤ 1099511627776) (hl : low.size ≤ 1099511627776) (ha : -9223372036854775808 ≤ a) (hb : a ≤ 9223372036854775807) :
    Calls Try.prog 21 #[.string s, .int .i64 a, .string low] w fun e w' => e = .returned (.bool (begS s a low)) ∧ Below w.heap.size w w' := by
  by_cases h0 : a < 0
  · have HT := Lib.hid (show begS s a low = false by unfold begS; rw [decide_eq_false (by omega)]; rfl)
    rw [HT.out]
    go_enter Try.func21, Try.ntmps21
    go_wp2
    go_ret
    exact ⟨rfl, Below.refl _ w⟩
  obtain ⟨k, rfl⟩ : ∃ k : Nat, a = k := ⟨a.toNat, by omega⟩
  by_cases h1 : (s.size : Int) < (k : Int)
  · have HT := Lib.hid (show begS s k low = false by
      unfold begS
      rw [decide_eq_false (by omega)]; rfl)
    rw [HT.out]
    go_enter Try.func21, Try.ntmps21
    go_wp2
    go_ret
    exact ⟨rfl, Below.refl _ w⟩
  · obtain ⟨T, hT⟩ : ∃ T, begS s k low = T := ⟨_, rfl⟩
    have HT : Hid ((low.data.toList.drop 0).isPrefixOf (lowL (s.data.toList.drop (k + 0))) = T) := Lib.hid (by
      rw [← hT]; unfold begS
      rw [show ((k : Nat) : Int).toNat = k by omega, decide_eq_true (by omega)]; rfl)
    rw [hT]
    clear hT
    go_enter Try.func21, Try.ntmps21
    go_wp2
    go_loopw [7] (fun v wr => ∃ (j : Nat), v = .int .i64 (j : Int) ∧ Below w.heap.size w wr ∧ j ≤ low.size ∧ (low.data.toList.drop j).isPrefixOf (lowL (s.data.toList.drop (k + j))) = T) (fun v _ => low.size - (intOf v).toNat)
    case atStart => exact ⟨0, rfl, Below.refl _ w, Nat.zero_le _, HT.out⟩
    case round =>
      obtain ⟨j, rfl, hbw, hj, hT⟩ := hrel
      have HJ := Lib.hid hT
      clear hT HT
      by_cases hlt : j < low.size
      · by_cases hk : k + j < s.size
        · have i1 : (k : Int) + (j : Int) < (s.size : Int) := by omega
          have i1' : (k : Int) + (j : Int) + 1 ≤ (s.size : Int) := by omega
          have i2 : (j : Int) < (low.size : Int) := by omega
          have i2' : (j : Int) + 1 ≤ (low.size : Int) := by omega
          have i3 : (0 : Int) ≤ (k : Int) + (j : Int) := by omega
          have i3' : (0 : Int) ≤ (k : Int) + (j : Int) + 1 := by omega
          have i4 : IntKind.i64.wrap ((k : Int) + (j : Int)) = (k : Int) + (j : Int) := i64_wrap _ (by omega) (by omega)
          have i5 : IntKind.i64.wrap ((k : Int) + (j : Int) + 1) = (k : Int) + (j : Int) + 1 := i64_wrap _ (by omega) (by omega)
          have i6 : IntKind.i64.wrap ((j : Int) + 1) = (j : Int) + 1 := i64_wrap _ (by omega) (by omega)
          have i7 : ((k : Int) + (j : Int)).toNat = k + j := by omega
          have i8 : ((k : Int) + (j : Int) + 1).toNat = k + j + 1 := by omega
          have i9 : (k : Int) + (j : Int) ≤ (k : Int) + (j : Int) + 1 := by omega
          have i10 : (j : Int) ≤ (j : Int) + 1 := by omega
          have i11 : ((j : Int) + 1).toNat = j + 1 := by omega
          obtain ⟨X, hX⟩ : ∃ X, lowS (s.extract (k + j) (k + j + 1)) = X := ⟨_, rfl⟩
          have HX := Lib.hid hX
          have cL : Hid (∀ w', Below w.heap.size w w' → Calls Try.prog 19 #[.string (s.extract (k + j) (k + j + 1))] w' fun e w'' => e = .returned (.string X) ∧ Below w.heap.size w w'') := Lib.hid (fun w' hb => by
            refine (refLower _ w' (by simp; omega)).mono ?_
            rintro e w'' ⟨rfl, hb''⟩
            exact ⟨by rw [HX.out], hb.trans (hb''.mono hb.size)⟩)
          clear hX
          have hd : Below w.heap.size w wr.drew := hbw.drew
          have FF : Hid (∀ w', Below w.heap.size w w' → Below w.heap.size w w') := Lib.hid (fun _ h => h)
          go_wp2
          go_region_held3 (fun w' => Below w.heap.size w w')
            (first | exact hd | assumption)
            (first
              | (go_at_call 19; (with_reducible refine (cL.out _ ‹_›).mono ?_); rintro e w' ⟨rfl, hb⟩))
          by_cases he : lowI (s[k + j].toNat : Int) = (low[j].toNat : Int)
          · have hE : (X.toList == (low.extract j (j + 1)).toList) = true := by rw [← HX.out, cmp_one s low k j hlt hk]; exact decide_eq_true he
            have HE := Lib.hid he
            clear he
            rw [hE]
            clear hE
            go_wp2
            go_roundw
            case rel => exact ⟨j + 1, rfl, ‹_›, by omega, pre_yes s low k j T hlt hk HE.out HJ.out⟩
            case measure => simp [intOf]; omega
          · have hE : (X.toList == (low.extract j (j + 1)).toList) = false := by rw [← HX.out, cmp_one s low k j hlt hk]; exact decide_eq_false he
            rw [hE]
            clear hE
            go_wp2
            go_ret
            exact ⟨ret_bool (pre_no s low k j T hlt hk he HJ.out), ‹_›⟩
        · have hk' : (s.size : Int) ≤ (k : Int) + (j : Int) := by omega
          go_wp2
          go_ret
          exact ⟨ret_bool (by rw [← HJ.out, pre_short s low k j hlt (by omega)]), hbw⟩
      · go_wp2
        go_ret
        exact ⟨ret_bool (by rw [← HJ.out, pre_end s low k j (by omega)]), hbw⟩

end Go.Proofs.Ytloabbfahpgbcaa
