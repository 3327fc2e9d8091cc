/-
  Texts in a row, of which the heads are struck in their place: the library's slices.IndexFunc and DeleteFunc, with render's own predicate.
-/
import Derived.Test.YtappdjhhaohejaaStrO
import Derived.Test.YtappdjhhaohejaaFloRow
import Derived.Test.YtappdjhhaohejaaRenMath
import Derived.Lib.SliceRun
import Derived.KernelRfl
namespace Go.Proofs.Ytappdjhhaohejaa
open Go.RowKit Go.Lib

/-- texts in a block, what stands ahead of them there, and what stands behind -/
structure RowD (w : World) (g : Nat) (A : List Value) (D : List Txt) (R : List Value) : Prop where
  heap : w.heap[g]? = some (.cells (A ++ strsV D ++ R).toArray 9 (0, 0))
theorem RowD.lt {w : World} {g : Nat} {A R : List Value} {D : List Txt} (h : RowD w g A D R) : g < w.heap.size := (Array.getElem?_eq_some_iff.1 h.heap).1
theorem RowD.cell {w : World} {g : Nat} {A R : List Value} {D : List Txt} (h : RowD w g A D R) (i : Nat) (hi : i < D.length) : w.cell? ⟨g, A.length + i, none⟩ = some (.string ⟨D[i].toArray⟩) := by
  rw [cell_of_row _ _ _ _ _ _ h.heap, List.getElem?_toArray, List.append_assoc, List.getElem?_append_right (Nat.le_add_right _ _), Nat.add_sub_cancel_left, List.getElem?_append_left (by rw [strsV_len]; exact hi)]
  exact strsV_at D i hi
theorem RowD.thawed {w : World} {g : Nat} {A R : List Value} {D : List Txt} (h : RowD w g A D R) (i : Nat) : w.frozen? ⟨g, i, none⟩ = false := Lib.frozen_of_heap h.heap i
theorem strsV_set (D : List Txt) (i : Nat) (x : Txt) : strsV (D.set i x) = (strsV D).set i (.string ⟨x.toArray⟩) := by
  unfold strsV; rw [List.map_set]
theorem RowD.set {w : World} {g : Nat} {A R : List Value} {D : List Txt} (h : RowD w g A D R) (i : Nat) (hi : i < D.length) (x : Txt) : RowD (w.setCell ⟨g, A.length + i, none⟩ (.string ⟨x.toArray⟩)) g A (D.set i x) R := by
  refine ⟨?_⟩
  rw [Go.heap_setCell_same w g _ _ _ _ h.heap]
  congr 2
  apply Array.ext'
  rw [Array.toList_setIfInBounds, List.toList_toArray, List.toList_toArray, strsV_set, List.append_assoc, List.append_assoc, List.set_append_right _ _ (Nat.le_add_right _ _), Nat.add_sub_cancel_left, List.set_append_left _ _ (by rw [strsV_len]; exact hi)]
theorem grown_setCell (w : World) (g i : Nat) (v : Value) : w.grownBy (w.setCell ⟨g, i, none⟩ v) (some g) :=
  ⟨rfl, rfl, rfl, by simp, fun k _ hk => Below.heap_setCell w ⟨g, i, none⟩ v _ (fun e => hk (congrArg some e))⟩
def emptyV : Value := .string ⟨#[]⟩
theorem RowD.clear {w : World} {g : Nat} {A R : List Value} {D : List Txt} (h : RowD w g A D R) (i n : Nat) (hn : i + n = D.length) : RowD (w.setCells g (A.length + i) (List.replicate n emptyV)) g A (D.take i ++ List.replicate n []) R := by
  refine ⟨?_⟩
  rw [setCells_row g _ _ _ _ _ _ h.heap (by simp [strsV_len]; omega)]
  congr 3
  have e1 : strsV (D.take i ++ List.replicate n []) = (strsV D).take i ++ List.replicate n emptyV := by
    rw [← strsV_app]
    congr 1
    · unfold strsV; rw [List.map_take]
    · unfold strsV; rw [List.map_replicate]; rfl
  rw [e1, List.toList_toArray, List.length_replicate]
  have e2 : (A ++ strsV D ++ R).take (A.length + i) = A ++ (strsV D).take i := by
    rw [List.append_assoc, List.take_append, List.take_of_length_le (Nat.le_add_right _ _), Nat.add_sub_cancel_left, List.take_append_of_le_length (by rw [strsV_len]; omega)]
  have e3 : (A ++ strsV D ++ R).drop (A.length + i + n) = R := by
    rw [show A.length + i + n = (A ++ strsV D).length by rw [List.length_append, strsV_len]; omega, List.drop_left]
  rw [e2, e3]
  simp only [List.append_assoc]

/-! what is struck, so far -/
def headB (x : Txt) : Bool := decide (x = headL)
structure KeptH (L D : List Txt) (j i : Nat) : Prop where
  len : D.length = L.length
  ij : i < j
  jl : j ≤ L.length
  low : D.take i = (L.take j).filter fun q => !headB q
  high : D.drop j = L.drop j
theorem KeptH.get {L D : List Txt} {j i : Nat} (h : KeptH L D j i) (hj : j < L.length) : D[j]'(by rw [h.len]; exact hj) = L[j] := by
  have h1 := congrArg (fun l => l[0]?) h.high
  simp only [List.getElem?_drop, Nat.add_zero] at h1
  rw [List.getElem?_eq_getElem (by rw [h.len]; exact hj), List.getElem?_eq_getElem hj] at h1
  exact Option.some.inj h1
theorem KeptH.keep {L D : List Txt} {j i : Nat} (h : KeptH L D j i) (hj : j < L.length) (hk : headB L[j] = false) : KeptH L (D.set i L[j]) (j + 1) (i + 1) := by
  have hlen := h.len
  have hij := h.ij
  refine ⟨by rw [List.length_set]; exact h.len, by omega, hj, ?_, ?_⟩
  · rw [List.take_succ_eq_append_getElem (by rw [List.length_set]; omega), List.take_set_of_le (Nat.le_refl _), List.getElem_set_self, h.low, List.take_succ_eq_append_getElem hj, List.filter_append]
    simp [hk]
  · rw [List.drop_set_of_lt (by omega), ← List.drop_drop, h.high, List.drop_drop]
theorem KeptH.skip {L D : List Txt} {j i : Nat} (h : KeptH L D j i) (hj : j < L.length) (hk : headB L[j] = true) : KeptH L D (j + 1) i := by
  have hij := h.ij
  refine ⟨h.len, by omega, hj, ?_, ?_⟩
  · rw [h.low, List.take_succ_eq_append_getElem hj, List.filter_append]
    simp [hk]
  · rw [← List.drop_drop, h.high, List.drop_drop]
theorem filter_noneH {L : List Txt} {k : Nat} (h : ∀ j (hj : j < L.length), j < k → headB L[j] = false) (hk : k ≤ L.length) : (L.take k).filter (fun q => !headB q) = L.take k := by
  refine List.filter_eq_self.2 fun q hq => ?_
  obtain ⟨j, hj, rfl⟩ := List.getElem_of_mem hq
  rw [List.length_take] at hj
  rw [List.getElem_take, h j (by omega) (by omega)]; rfl
theorem KeptH.start {L : List Txt} {k : Nat} (h : ∀ j (hj : j < L.length), j < k → headB L[j] = false) (hk : k < L.length) (hs : headB L[k] = true) : KeptH L L (k + 1) k := by
  refine ⟨rfl, by omega, hk, ?_, rfl⟩
  rw [List.take_succ_eq_append_getElem hk, List.filter_append, filter_noneH h (by omega)]
  simp [hs]
theorem KeptH.done {L D : List Txt} {i : Nat} (h : KeptH L D L.length i) : D.take i = L.filter fun q => !headB q := by
  have := h.low
  rwa [List.take_length] at this

set_option maxRecDepth 100000 in
set_option maxHeartbeats 1000000 in
/-- the predicate -/
theorem isHead_any (s : ByteArray) (w : World) :
    Calls Try.prog 42 #[.string s] w fun e w' => e = .returned (.bool (headB s.data.toList)) ∧ w' = w := by
  have hb : (s.toList == [104, 101, 97, 100]) = headB s.data.toList := by
    rw [ByteArray.toList_eq]
    exact Bool.eq_iff_iff.2 (by unfold headB; rw [beq_iff_eq, decide_eq_true_iff]; exact Iff.rfl)
  obtain ⟨b, hbb⟩ : ∃ b, headB s.data.toList = b := ⟨_, rfl⟩
  rw [hbb] at hb ⊢
  clear hbb
  go_enter Try.func42, Try.ntmps42
  go_wp2
  go_ret
  exact ⟨rfl, rfl⟩

set_option maxRecDepth 100000 in
set_option maxHeartbeats 1000000 in
theorem indexHead_none (w : World) (f : Value) :
    Calls Try.prog 47 #[.slice none 0 0, f] w fun e w' => e = .returned (.int .i64 (-1)) ∧ w' = w := by
  go_enter Try.func47, Try.ntmps47
  go_wp2
  go_loopw [5, 8] (fun _ v wr => v = .int .i64 0 ∧ w = wr) (fun _ _ _ => 0)
  case atStart => exact ⟨rfl, rfl⟩
  case round =>
    obtain ⟨rfl, rfl⟩ := hrel
    go_wp2
    go_ret
    exact ⟨rfl, rfl⟩

set_option maxRecDepth 100000 in
set_option maxHeartbeats 4000000 in
theorem indexHead_any (g o c n : Nat) (A : List Value) (D : List Txt) (R : List Value) (w : World) (h : RowD w g A D R) (ho : A.length = o) (hn : D.length = n) (hnc : n ≤ c) (hc : c ≤ 9223372036854775807) :
    Calls Try.prog 47 #[.slice (some ⟨g, o, none⟩) n c, .func (.func 42) #[] #[]] w fun e w' => (∃ r : Int, e = .returned (.int .i64 r) ∧ ((r = -1 ∧ ∀ j (hj : j < D.length), headB D[j] = false) ∨ ∃ k : Nat, ∃ hk : k < D.length, r = k ∧ headB D[k] = true ∧ ∀ j (hj : j < D.length), j < k → headB D[j] = false)) ∧ w' = w := by
  have H := Lib.hid h
  have HO := Lib.hid ho
  have HN := Lib.hid hn
  clear h hn ho
  go_enter Try.func47, Try.ntmps47
  go_wp2
  go_loopw [5, 8] (fun _ v wr => ∃ i : Nat, v = .int .i64 (i : Int) ∧ i ≤ n ∧ w = wr ∧ Hid (∀ j (hj : j < D.length), j < i → headB D[j] = false)) (fun _ v _ => n - (intOf v).toNat)
  case atStart => exact ⟨0, rfl, Nat.zero_le _, rfl, Lib.hid fun j _ h => absurd h (by omega)⟩
  case round =>
    obtain ⟨i, rfl, hi, rfl, HS⟩ := hrel
    by_cases hlt : i < n
    · have hiD : i < D.length := by rw [HN.out]; exact hlt
      have x0 := H.out.cell i hiD
      rw [HO.out] at x0
      obtain ⟨S, hS⟩ : ∃ S : ByteArray, (⟨D[i].toArray⟩ : ByteArray) = S := ⟨_, rfl⟩
      have hS2 : S.data.toList = D[i] := by rw [← hS, List.toList_toArray]
      rw [hS] at x0
      have HC := fun w => Lib.hid (isHead_any S w)
      rw [hS2] at HC
      obtain ⟨b, hb⟩ : ∃ b, headB D[i] = b := ⟨_, rfl⟩
      rw [hb] at HC
      have HBB := Lib.hid hb
      clear hS hS2 hb
      cases b
      · have HS1 : Hid (∀ j (hj : j < D.length), j < i + 1 → headB D[j] = false) := Lib.hid fun j hj hji => by
          rcases Nat.lt_or_eq_of_le (Nat.le_of_lt_succ hji) with h1 | rfl
          · exact HS.out j hj h1
          · exact HBB.out
        go_wp2_with (fail)
        refine (HC _).out.mono ?_
        rintro e w1 ⟨rfl, rfl⟩
        go_wp2
        go_roundw
        case rel => exact ⟨i + 1, by go_num, by omega, by first | rfl | trivial, HS1⟩
        case measure => simp [intOf]; omega
      · go_wp2_with (fail)
        refine (HC _).out.mono ?_
        rintro e w1 ⟨rfl, rfl⟩
        go_wp2
        go_ret
        exact ⟨⟨_, rfl, .inr ⟨i, hiD, rfl, HBB.out, HS.out⟩⟩, rfl⟩
    · have hin : i = n := by omega
      go_wp2
      go_ret
      exact ⟨⟨_, rfl, .inl ⟨rfl, fun j hj => HS.out j hj (by have := HN.out; omega)⟩⟩, rfl⟩

set_option maxRecDepth 100000 in
set_option maxHeartbeats 1000000 in
theorem deleteHead_none (w : World) (f : Value) :
    Calls Try.prog 41 #[.slice none 0 0, f] w fun e w' => e = .returned (.slice none 0 0) ∧ w' = w := by
  have HI := fun w => Lib.hid (indexHead_none w f)
  go_enter Try.func41, Try.ntmps41
  go_wp2_with (fail)
  refine (HI _).out.mono ?_
  rintro e w1 ⟨rfl, rfl⟩
  go_wp2
  go_ret
  exact ⟨rfl, rfl⟩

set_option maxRecDepth 100000 in
set_option maxHeartbeats 16000000 in
theorem deleteHead_any (g o c n : Nat) (A : List Value) (D : List Txt) (R : List Value) (w : World) (h : RowD w g A D R) (ho : A.length = o) (hn : D.length = n) (hnc : n ≤ c) (hc : c ≤ 9223372036854775807) :
    Calls Try.prog 41 #[.slice (some ⟨g, o, none⟩) n c, .func (.func 42) #[] #[]] w fun e w' => ∃ E m, e = .returned (.slice (some ⟨g, o, none⟩) m c) ∧ RowD w' g A E R ∧ m ≤ n ∧ E.length = n ∧ E.take m = (D.filter fun q => !headB q) ∧ w.grownBy w' (some g) := by
  have H := Lib.hid h
  have HO := Lib.hid ho
  have HN := Lib.hid hn
  have HI := fun w h => Lib.hid (indexHead_any g o c n A D R w h ho hn hnc hc)
  have hz : ∀ w, (zeroValue 9).run Try.prog w = .ok emptyV w := fun w => by kernel_rfl
  have HZ := Lib.hid hz
  clear h hn ho hz
  go_enter Try.func41, Try.ntmps41
  go_wp2_with (fail)
  refine (HI _ H.out).out.mono ?_
  rintro e w1 ⟨⟨r, rfl, hr⟩, hw1⟩
  obtain rfl := hw1.symm
  clear HI
  rcases hr with ⟨rfl, hall⟩ | ⟨k, hk, rfl, hs, hall⟩
  · have HA := Lib.hid hall
    clear hall
    go_wp2
    go_ret
    refine ⟨D, n, rfl, H.out, Nat.le_refl _, HN.out, ?_, World.grownBy.refl _ _⟩
    have := filter_noneH (L := D) (k := D.length) (fun j hj _ => HA.out j hj) (Nat.le_refl _)
    rw [List.take_length] at this
    rw [this, List.take_of_length_le (by rw [HN.out]; exact Nat.le_refl _)]
  · have HK0 := Lib.hid (KeptH.start hall hk hs)
    have hkn : k < n := by rw [← HN.out]; exact hk
    have hne : ((k : Int) == -1) = false := beq_eq_false_iff_ne.2 (by omega)
    clear hall hk hs
    go_wp2
    clear hne
    go_loopw [5, 6, 7] (fun v5 v6 _ wr => ∃ (i j : Nat) (E : List Txt), v5 = .int .i64 (i : Int) ∧ v6 = .int .i64 (j : Int) ∧ i < j ∧ j ≤ n ∧ RowD wr g A E R ∧ w.grownBy wr (some g) ∧ Hid (KeptH D E j i)) (fun _ v _ _ => n - (intOf v).toNat)
    case atStart => exact ⟨k, k + 1, D, rfl, by go_num, by omega, by omega, H.out, World.grownBy.refl _ _, HK0⟩
    case round =>
      obtain ⟨i, j, E, rfl, rfl, hij, hjn, hrow, hb, HK⟩ := hrel
      have HR := Lib.hid hrow
      have HB := Lib.hid hb
      have hE := HK.out.len
      rw [HN.out] at hE
      clear hrow hb HK0
      by_cases hlt : j < n
      · have hjE : j < E.length := by omega
        have hjD : j < D.length := by rw [HN.out]; exact hlt
        have hiE : i < E.length := by omega
        have x0 := HR.out.cell j hjE
        have y0 := HR.out.cell i hiE
        have f0 := HR.out.thawed (o + i)
        rw [HO.out] at x0 y0
        have hget := HK.out.get hjD
        have HST := Lib.hid (HR.out.set i hiE E[j])
        rw [HO.out] at HST
        obtain ⟨old, hold⟩ : ∃ old : Value, Value.string ⟨E[i].toArray⟩ = old := ⟨_, rfl⟩
        rw [hold] at y0
        obtain ⟨S, hS⟩ : ∃ S : ByteArray, (⟨E[j].toArray⟩ : ByteArray) = S := ⟨_, rfl⟩
        have hS2 : S.data.toList = D[j] := by rw [← hS, List.toList_toArray, hget]
        rw [hS] at x0 HST
        have HC := fun w => Lib.hid (isHead_any S w)
        rw [hS2] at HC
        obtain ⟨b, hb⟩ : ∃ b, headB D[j] = b := ⟨_, rfl⟩
        rw [hb] at HC
        have HG := Lib.hid hget
        have HDB := Lib.hid hb
        have HGR := Lib.hid (HB.out.andThen (grown_setCell wr g (o + i) (.string S)) (fun _ h => .inr h))
        clear hS hS2 hb hget hold
        cases b
        · have HK1 := Lib.hid (HK.out.keep hjD HDB.out)
          rw [← HG.out] at HK1
          go_wp2_with (fail)
          refine (HC _).out.mono ?_
          rintro e w3 ⟨rfl, hw3⟩
          obtain rfl := hw3.symm
          go_wp2
          go_roundw
          case rel => exact ⟨i + 1, j + 1, _, by go_num, by go_num, by omega, by omega, HST.out, HGR.out, HK1⟩
          case measure => simp [intOf]; omega
        · have HK1 := Lib.hid (HK.out.skip hjD HDB.out)
          clear HST HGR
          go_wp2_with (fail)
          refine (HC _).out.mono ?_
          rintro e w3 ⟨rfl, hw3⟩
          obtain rfl := hw3.symm
          go_wp2
          go_roundw
          case rel => exact ⟨i, j + 1, E, rfl, by go_num, by omega, by omega, HR.out, HB.out, HK1⟩
          case measure => simp [intOf]; omega
      · obtain rfl : j = n := by omega
        have HD1 : Hid (E.take i = D.filter fun q => !headB q) := Lib.hid (by
          have := HK.out
          have hl := HN.out
          rw [← hl] at this
          exact this.done)
        have hin : i ≤ j := by omega
        have hcl : ∀ ty, (Builtin.clear_ #[26] ty #[.slice (some ⟨g, o + i, none⟩) (j - i) (c - i)]).run Try.prog wr = .ok (.tuple #[]) (wr.setCells g (o + i) (List.replicate (j - i) emptyV)) :=
          fun ty => Lib.run_clear_slice wr _ _ ty _ Try.underlying26 HZ.out rfl rfl g (o + i) _ _ (by omega) (fun t ht => by
            have := HR.out.cell (i + t) (by omega)
            rw [HO.out] at this
            rw [show o + i + t = o + (i + t) by omega, this]; rfl) (fun t ht => HR.out.thawed _)
        have HRC := Lib.hid (HR.out.clear i (j - i) (by omega))
        rw [HO.out] at HRC
        have HGR := Lib.hid (HB.out.andThen (setCells_else g (List.replicate (j - i) emptyV) (o + i) wr) (fun _ h => .inr h))
        go_wp2
        go_ret
        refine ⟨_, i, rfl, HRC.out, hin, by simp; omega, ?_, HGR.out⟩
        rw [List.take_append_of_le_length (by rw [List.length_take]; omega), List.take_of_length_le (by rw [List.length_take]; omega)]
        exact HD1.out
end Go.Proofs.Ytappdjhhaohejaa
