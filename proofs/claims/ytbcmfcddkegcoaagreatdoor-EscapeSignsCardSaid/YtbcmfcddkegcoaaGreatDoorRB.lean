/-
  Texts laid together: RenRow, RenMap, RenPage, RenOpen, RenDeed.
-/
import Derived.Test.YtbcmfcddkegcoaaGreatDoorFA
import Derived.Test.YtbcmfcddkegcoaaGreatDoorRA
import Derived.Lib.SliceRun
import Derived.KernelRfl
import Derived.Maps.OwnSet
import Derived.Maps.OwnOps
import Derived.Maps.Views
import Derived.Lib.Hide
import Derived.Test.YtbcmfcddkegcoaaGreatDoorKA
import Derived.Test.YtbcmfcddkegcoaaGreatDoorQD
import Derived.Deep.LoopGhost
/-! Texts in a row, of which the heads are struck in their place: the library's slices.IndexFunc and DeleteFunc, with render's own predicate. -/
namespace Go.Proofs.YtbcmfcddkegcoaaGreatDoor
open Go.RowKit Go.Lib

/-- texts in a block, what stands ahead of them there, and what stands behind -/
structure RowD (w : World) (g : Nat) (A : List Value) (D : List Txt) (R : List Value) : Prop where
  heap : w.heap[g]? = some (.cells (A ++ strsV D ++ R).toArray 9 (0, 0))
theorem RowD.lt {w : World} {g : Nat} {A R : List Value} {D : List Txt} (h : RowD w g A D R) : g < w.heap.size := (Array.getElem?_eq_some_iff.1 h.heap).1
theorem RowD.cell {w : World} {g : Nat} {A R : List Value} {D : List Txt} (h : RowD w g A D R) (i : Nat) (hi : i < D.length) : w.cell? ⟨g, A.length + i, none⟩ = some (.string ⟨D[i].toArray⟩) := by
  rw [cell_of_row _ _ _ _ _ _ h.heap, List.getElem?_toArray, List.append_assoc, List.getElem?_append_right (Nat.le_add_right _ _), Nat.add_sub_cancel_left, List.getElem?_append_left (by rw [strsV_len]; exact hi)]
  exact strsV_at D i hi
theorem RowD.thawed {w : World} {g : Nat} {A R : List Value} {D : List Txt} (h : RowD w g A D R) (i : Nat) : w.frozen? ⟨g, i, none⟩ = false := Lib.frozen_of_heap h.heap i
theorem strsV_set (D : List Txt) (i : Nat) (x : Txt) : strsV (D.set i x) = (strsV D).set i (.string ⟨x.toArray⟩) := by
  unfold strsV; rw [List.map_set]
theorem RowD.set {w : World} {g : Nat} {A R : List Value} {D : List Txt} (h : RowD w g A D R) (i : Nat) (hi : i < D.length) (x : Txt) : RowD (w.setCell ⟨g, A.length + i, none⟩ (.string ⟨x.toArray⟩)) g A (D.set i x) R := by
  refine ⟨?_⟩
  rw [Go.heap_setCell_same w g _ _ _ _ h.heap]
  congr 2
  apply Array.ext'
  rw [Array.toList_setIfInBounds, List.toList_toArray, List.toList_toArray, strsV_set, List.append_assoc, List.append_assoc, List.set_append_right _ _ (Nat.le_add_right _ _), Nat.add_sub_cancel_left, List.set_append_left _ _ (by rw [strsV_len]; exact hi)]
theorem grown_setCell (w : World) (g i : Nat) (v : Value) : w.grownBy (w.setCell ⟨g, i, none⟩ v) (some g) :=
  ⟨rfl, rfl, rfl, by simp, fun k _ hk => Below.heap_setCell w ⟨g, i, none⟩ v _ (fun e => hk (congrArg some e))⟩
def emptyV : Value := .string ⟨#[]⟩
theorem RowD.clear {w : World} {g : Nat} {A R : List Value} {D : List Txt} (h : RowD w g A D R) (i n : Nat) (hn : i + n = D.length) : RowD (w.setCells g (A.length + i) (List.replicate n emptyV)) g A (D.take i ++ List.replicate n []) R := by
  refine ⟨?_⟩
  rw [setCells_row g _ _ _ _ _ _ h.heap (by simp [strsV_len]; omega)]
  congr 3
  have e1 : strsV (D.take i ++ List.replicate n []) = (strsV D).take i ++ List.replicate n emptyV := by
    rw [← strsV_app]
    congr 1
    · unfold strsV; rw [List.map_take]
    · unfold strsV; rw [List.map_replicate]; rfl
  rw [e1, List.toList_toArray, List.length_replicate]
  have e2 : (A ++ strsV D ++ R).take (A.length + i) = A ++ (strsV D).take i := by
    rw [List.append_assoc, List.take_append, List.take_of_length_le (Nat.le_add_right _ _), Nat.add_sub_cancel_left, List.take_append_of_le_length (by rw [strsV_len]; omega)]
  have e3 : (A ++ strsV D ++ R).drop (A.length + i + n) = R := by
    rw [show A.length + i + n = (A ++ strsV D).length by rw [List.length_append, strsV_len]; omega, List.drop_left]
  rw [e2, e3]
  simp only [List.append_assoc]

/-! what is struck, so far -/
def headB (x : Txt) : Bool := decide (x = headL)
structure KeptH (L D : List Txt) (j i : Nat) : Prop where
  len : D.length = L.length
  ij : i < j
  jl : j ≤ L.length
  low : D.take i = (L.take j).filter fun q => !headB q
  high : D.drop j = L.drop j
theorem KeptH.get {L D : List Txt} {j i : Nat} (h : KeptH L D j i) (hj : j < L.length) : D[j]'(by rw [h.len]; exact hj) = L[j] := by
  have h1 := congrArg (fun l => l[0]?) h.high
  simp only [List.getElem?_drop, Nat.add_zero] at h1
  rw [List.getElem?_eq_getElem (by rw [h.len]; exact hj), List.getElem?_eq_getElem hj] at h1
  exact Option.some.inj h1
theorem KeptH.keep {L D : List Txt} {j i : Nat} (h : KeptH L D j i) (hj : j < L.length) (hk : headB L[j] = false) : KeptH L (D.set i L[j]) (j + 1) (i + 1) := by
  have hlen := h.len
  have hij := h.ij
  refine ⟨by rw [List.length_set]; exact h.len, by omega, hj, ?_, ?_⟩
  · rw [List.take_succ_eq_append_getElem (by rw [List.length_set]; omega), List.take_set_of_le (Nat.le_refl _), List.getElem_set_self, h.low, List.take_succ_eq_append_getElem hj, List.filter_append]
    simp [hk]
  · rw [List.drop_set_of_lt (by omega), ← List.drop_drop, h.high, List.drop_drop]
theorem KeptH.skip {L D : List Txt} {j i : Nat} (h : KeptH L D j i) (hj : j < L.length) (hk : headB L[j] = true) : KeptH L D (j + 1) i := by
  have hij := h.ij
  refine ⟨h.len, by omega, hj, ?_, ?_⟩
  · rw [h.low, List.take_succ_eq_append_getElem hj, List.filter_append]
    simp [hk]
  · rw [← List.drop_drop, h.high, List.drop_drop]
theorem filter_noneH {L : List Txt} {k : Nat} (h : ∀ j (hj : j < L.length), j < k → headB L[j] = false) (hk : k ≤ L.length) : (L.take k).filter (fun q => !headB q) = L.take k := by
  refine List.filter_eq_self.2 fun q hq => ?_
  obtain ⟨j, hj, rfl⟩ := List.getElem_of_mem hq
  rw [List.length_take] at hj
  rw [List.getElem_take, h j (by omega) (by omega)]; rfl
theorem KeptH.start {L : List Txt} {k : Nat} (h : ∀ j (hj : j < L.length), j < k → headB L[j] = false) (hk : k < L.length) (hs : headB L[k] = true) : KeptH L L (k + 1) k := by
  refine ⟨rfl, by omega, hk, ?_, rfl⟩
  rw [List.take_succ_eq_append_getElem hk, List.filter_append, filter_noneH h (by omega)]
  simp [hs]
theorem KeptH.done {L D : List Txt} {i : Nat} (h : KeptH L D L.length i) : D.take i = L.filter fun q => !headB q := by
  have := h.low
  rwa [List.take_length] at this

set_option maxRecDepth 100000 in
set_option maxHeartbeats 1000000 in
/-- the predicate -/
theorem isHead_any (s : ByteArray) (w : World) :
    Calls Tryz.prog 58 #[.string s] w fun e w' => e = .returned (.bool (headB s.data.toList)) ∧ w' = w := by
  have hb : (s.toList == [104, 101, 97, 100]) = headB s.data.toList := by
    rw [ByteArray.toList_eq]
    exact Bool.eq_iff_iff.2 (by unfold headB; rw [beq_iff_eq, decide_eq_true_iff]; exact Iff.rfl)
  obtain ⟨b, hbb⟩ : ∃ b, headB s.data.toList = b := ⟨_, rfl⟩
  rw [hbb] at hb ⊢
  clear hbb
  go_enter Tryz.func58, Tryz.ntmps58
  go_wp2
  go_ret
  exact ⟨rfl, rfl⟩

set_option maxRecDepth 100000 in
set_option maxHeartbeats 1000000 in
theorem indexHead_none (w : World) (f : Value) :
    Calls Tryz.prog 88 #[.slice none 0 0, f] w fun e w' => e = .returned (.int .i64 (-1)) ∧ w' = w := by
  go_enter Tryz.func88, Tryz.ntmps88
  go_wp2
  go_loopw [5, 8] (fun _ v wr => v = .int .i64 0 ∧ w = wr) (fun _ _ _ => 0)
  case atStart => exact ⟨rfl, rfl⟩
  case round =>
    obtain ⟨rfl, rfl⟩ := hrel
    go_wp2
    go_ret
    exact ⟨rfl, rfl⟩

set_option maxRecDepth 100000 in
set_option maxHeartbeats 4000000 in
theorem indexHead_any (g o c n : Nat) (A : List Value) (D : List Txt) (R : List Value) (w : World) (h : RowD w g A D R) (ho : A.length = o) (hn : D.length = n) (hnc : n ≤ c) (hc : c ≤ 9223372036854775807) :
    Calls Tryz.prog 88 #[.slice (some ⟨g, o, none⟩) n c, .func (.func 58) #[] #[]] w fun e w' => (∃ r : Int, e = .returned (.int .i64 r) ∧ ((r = -1 ∧ ∀ j (hj : j < D.length), headB D[j] = false) ∨ ∃ k : Nat, ∃ hk : k < D.length, r = k ∧ headB D[k] = true ∧ ∀ j (hj : j < D.length), j < k → headB D[j] = false)) ∧ w' = w := by
  have H := Lib.hid h
  have HO := Lib.hid ho
  have HN := Lib.hid hn
  clear h hn ho
  go_enter Tryz.func88, Tryz.ntmps88
  go_wp2
  go_loopw [5, 8] (fun _ v wr => ∃ i : Nat, v = .int .i64 (i : Int) ∧ i ≤ n ∧ w = wr ∧ Hid (∀ j (hj : j < D.length), j < i → headB D[j] = false)) (fun _ v _ => n - (intOf v).toNat)
  case atStart => exact ⟨0, rfl, Nat.zero_le _, rfl, Lib.hid fun j _ h => absurd h (by omega)⟩
  case round =>
    obtain ⟨i, rfl, hi, rfl, HS⟩ := hrel
    by_cases hlt : i < n
    · have hiD : i < D.length := by rw [HN.out]; exact hlt
      have x0 := H.out.cell i hiD
      rw [HO.out] at x0
      obtain ⟨S, hS⟩ : ∃ S : ByteArray, (⟨D[i].toArray⟩ : ByteArray) = S := ⟨_, rfl⟩
      have hS2 : S.data.toList = D[i] := by rw [← hS, List.toList_toArray]
      rw [hS] at x0
      have HC := fun w => Lib.hid (isHead_any S w)
      rw [hS2] at HC
      obtain ⟨b, hb⟩ : ∃ b, headB D[i] = b := ⟨_, rfl⟩
      rw [hb] at HC
      have HBB := Lib.hid hb
      clear hS hS2 hb
      cases b
      · have HS1 : Hid (∀ j (hj : j < D.length), j < i + 1 → headB D[j] = false) := Lib.hid fun j hj hji => by
          rcases Nat.lt_or_eq_of_le (Nat.le_of_lt_succ hji) with h1 | rfl
          · exact HS.out j hj h1
          · exact HBB.out
        go_wp2_with (fail)
        refine (HC _).out.mono ?_
        rintro e w1 ⟨rfl, rfl⟩
        go_wp2
        go_roundw
        case rel => exact ⟨i + 1, by go_num, by omega, by first | rfl | trivial, HS1⟩
        case measure => simp [intOf]; omega
      · go_wp2_with (fail)
        refine (HC _).out.mono ?_
        rintro e w1 ⟨rfl, rfl⟩
        go_wp2
        go_ret
        exact ⟨⟨_, rfl, .inr ⟨i, hiD, rfl, HBB.out, HS.out⟩⟩, rfl⟩
    · have hin : i = n := by omega
      go_wp2
      go_ret
      exact ⟨⟨_, rfl, .inl ⟨rfl, fun j hj => HS.out j hj (by have := HN.out; omega)⟩⟩, rfl⟩

set_option maxRecDepth 100000 in
set_option maxHeartbeats 1000000 in
theorem deleteHead_none (w : World) (f : Value) :
    Calls Tryz.prog 57 #[.slice none 0 0, f] w fun e w' => e = .returned (.slice none 0 0) ∧ w' = w := by
  have HI := fun w => Lib.hid (indexHead_none w f)
  go_enter Tryz.func57, Tryz.ntmps57
  go_wp2_with (fail)
  refine (HI _).out.mono ?_
  rintro e w1 ⟨rfl, rfl⟩
  go_wp2
  go_ret
  exact ⟨rfl, rfl⟩

set_option maxRecDepth 100000 in
set_option maxHeartbeats 16000000 in
theorem deleteHead_any (g o c n : Nat) (A : List Value) (D : List Txt) (R : List Value) (w : World) (h : RowD w g A D R) (ho : A.length = o) (hn : D.length = n) (hnc : n ≤ c) (hc : c ≤ 9223372036854775807) :
    Calls Tryz.prog 57 #[.slice (some ⟨g, o, none⟩) n c, .func (.func 58) #[] #[]] w fun e w' => ∃ E m, e = .returned (.slice (some ⟨g, o, none⟩) m c) ∧ RowD w' g A E R ∧ m ≤ n ∧ E.length = n ∧ E.take m = (D.filter fun q => !headB q) ∧ w.grownBy w' (some g) := by
  have H := Lib.hid h
  have HO := Lib.hid ho
  have HN := Lib.hid hn
  have HI := fun w h => Lib.hid (indexHead_any g o c n A D R w h ho hn hnc hc)
  have hz : ∀ w, (zeroValue 9).run Tryz.prog w = .ok emptyV w := fun w => by kernel_rfl
  have HZ := Lib.hid hz
  clear h hn ho hz
  go_enter Tryz.func57, Tryz.ntmps57
  go_wp2_with (fail)
  refine (HI _ H.out).out.mono ?_
  rintro e w1 ⟨⟨r, rfl, hr⟩, hw1⟩
  obtain rfl := hw1.symm
  clear HI
  rcases hr with ⟨rfl, hall⟩ | ⟨k, hk, rfl, hs, hall⟩
  · have HA := Lib.hid hall
    clear hall
    go_wp2
    go_ret
    refine ⟨D, n, rfl, H.out, Nat.le_refl _, HN.out, ?_, World.grownBy.refl _ _⟩
    have := filter_noneH (L := D) (k := D.length) (fun j hj _ => HA.out j hj) (Nat.le_refl _)
    rw [List.take_length] at this
    rw [this, List.take_of_length_le (by rw [HN.out]; exact Nat.le_refl _)]
  · have HK0 := Lib.hid (KeptH.start hall hk hs)
    have hkn : k < n := by rw [← HN.out]; exact hk
    have hne : ((k : Int) == -1) = false := beq_eq_false_iff_ne.2 (by omega)
    clear hall hk hs
    go_wp2
    clear hne
    go_loopw [5, 6, 7] (fun v5 v6 _ wr => ∃ (i j : Nat) (E : List Txt), v5 = .int .i64 (i : Int) ∧ v6 = .int .i64 (j : Int) ∧ i < j ∧ j ≤ n ∧ RowD wr g A E R ∧ w.grownBy wr (some g) ∧ Hid (KeptH D E j i)) (fun _ v _ _ => n - (intOf v).toNat)
    case atStart => exact ⟨k, k + 1, D, rfl, by go_num, by omega, by omega, H.out, World.grownBy.refl _ _, HK0⟩
    case round =>
      obtain ⟨i, j, E, rfl, rfl, hij, hjn, hrow, hb, HK⟩ := hrel
      have HR := Lib.hid hrow
      have HB := Lib.hid hb
      have hE := HK.out.len
      rw [HN.out] at hE
      clear hrow hb HK0
      by_cases hlt : j < n
      · have hjE : j < E.length := by omega
        have hjD : j < D.length := by rw [HN.out]; exact hlt
        have hiE : i < E.length := by omega
        have x0 := HR.out.cell j hjE
        have y0 := HR.out.cell i hiE
        have f0 := HR.out.thawed (o + i)
        rw [HO.out] at x0 y0
        have hget := HK.out.get hjD
        have HST := Lib.hid (HR.out.set i hiE E[j])
        rw [HO.out] at HST
        obtain ⟨old, hold⟩ : ∃ old : Value, Value.string ⟨E[i].toArray⟩ = old := ⟨_, rfl⟩
        rw [hold] at y0
        obtain ⟨S, hS⟩ : ∃ S : ByteArray, (⟨E[j].toArray⟩ : ByteArray) = S := ⟨_, rfl⟩
        have hS2 : S.data.toList = D[j] := by rw [← hS, List.toList_toArray, hget]
        rw [hS] at x0 HST
        have HC := fun w => Lib.hid (isHead_any S w)
        rw [hS2] at HC
        obtain ⟨b, hb⟩ : ∃ b, headB D[j] = b := ⟨_, rfl⟩
        rw [hb] at HC
        have HG := Lib.hid hget
        have HDB := Lib.hid hb
        have HGR := Lib.hid (HB.out.andThen (grown_setCell wr g (o + i) (.string S)) (fun _ h => .inr h))
        clear hS hS2 hb hget hold
        cases b
        · have HK1 := Lib.hid (HK.out.keep hjD HDB.out)
          rw [← HG.out] at HK1
          go_wp2_with (fail)
          refine (HC _).out.mono ?_
          rintro e w3 ⟨rfl, hw3⟩
          obtain rfl := hw3.symm
          go_wp2
          go_roundw
          case rel => exact ⟨i + 1, j + 1, _, by go_num, by go_num, by omega, by omega, HST.out, HGR.out, HK1⟩
          case measure => simp [intOf]; omega
        · have HK1 := Lib.hid (HK.out.skip hjD HDB.out)
          clear HST HGR
          go_wp2_with (fail)
          refine (HC _).out.mono ?_
          rintro e w3 ⟨rfl, hw3⟩
          obtain rfl := hw3.symm
          go_wp2
          go_roundw
          case rel => exact ⟨i, j + 1, E, rfl, by go_num, by omega, by omega, HR.out, HB.out, HK1⟩
          case measure => simp [intOf]; omega
      · obtain rfl : j = n := by omega
        have HD1 : Hid (E.take i = D.filter fun q => !headB q) := Lib.hid (by
          have := HK.out
          have hl := HN.out
          rw [← hl] at this
          exact this.done)
        have hin : i ≤ j := by omega
        have hcl : ∀ ty, (Builtin.clear_ #[43] ty #[.slice (some ⟨g, o + i, none⟩) (j - i) (c - i)]).run Tryz.prog wr = .ok (.tuple #[]) (wr.setCells g (o + i) (List.replicate (j - i) emptyV)) :=
          fun ty => Lib.run_clear_slice wr _ _ ty _ Tryz.underlying43 HZ.out rfl rfl g (o + i) _ _ (by omega) (fun t ht => by
            have := HR.out.cell (i + t) (by omega)
            rw [HO.out] at this
            rw [show o + i + t = o + (i + t) by omega, this]; rfl) (fun t ht => HR.out.thawed _)
        have HRC := Lib.hid (HR.out.clear i (j - i) (by omega))
        rw [HO.out] at HRC
        have HGR := Lib.hid (HB.out.andThen (setCells_else g (List.replicate (j - i) emptyV) (o + i) wr) (fun _ h => .inr h))
        go_wp2
        go_ret
        refine ⟨_, i, rfl, HRC.out, hin, by simp; omega, ?_, HGR.out⟩
        rw [List.take_append_of_le_length (by rw [List.length_take]; omega), List.take_of_length_le (by rw [List.length_take]; omega)]
        exact HD1.out
end Go.Proofs.YtbcmfcddkegcoaaGreatDoor

/-! A map from texts to how many, and one from numbers to functions, that the call itself made: each told by what a look-up answers. -/
namespace Go.Proofs.YtbcmfcddkegcoaaGreatDoor
open Go.RowKit Go.Lib Go.WideMaps Go.Maps

/-- the map's block, at most n entries, and what it answers at each text -/
def MapCnt (w : World) (b n : Nat) (f : Txt → Nat) : Prop :=
  ∃ D : DataW Unit, w.ownsMap Tryz.prog 9 (plainElem Tryz.prog 3) b n D ∧ IsMap D ∧ ∀ t : Txt, D.atKey (.string t) (.lit (.int .i64 0)) = .lit (.int .i64 (f t : Int))
/-- the same as an object -/
def CntO (b n : Nat) (f : Txt → Nat) : Own := fun w F => MapCnt w b n f ∧ ∀ k, F k ↔ k = b
theorem cntO_lies (b n : Nat) (f : Txt → Nat) : Lies (CntO b n f) := by
  refine ⟨?_, ?_⟩
  · rintro w F ⟨⟨D, h1, -⟩, hF⟩ k hk
    rw [(hF k).1 hk]; exact h1.lt
  · rintro w w' F ⟨⟨D, ⟨es, cl, hb, h4⟩, h2⟩, hF⟩ hk
    exact ⟨⟨D, ⟨es, cl, (hk b ((hF b).2 rfl)).trans hb, h4⟩, h2⟩, hF⟩
theorem cntO_made {w0 w : World} {R : Own} (h : Made w0 w R) (hR : Lies R) : Made w0 (w.alloc (.map #[] 0)) (Sep (CntO w.heap.size 0 (fun _ => 0)) R) :=
  h.more hR ((Below.refl w.heap.size w).alloc (Nat.le_refl _) _) (S := CntO w.heap.size 0 (fun _ => 0)) (F := fun k => k = w.heap.size) ⟨⟨.map [], World.ownsMap_made _ _ _ _, isMap_empty, fun _ => rfl⟩, fun _ => Iff.rfl⟩ (fun k hk => by omega)
theorem cntO_alike {b n : Nat} {f g : Txt → Nat} (h : ∀ t, f t = g t) : Imp (CntO b n f) (CntO b n g) := by
  have : f = g := funext h
  subst this
  exact fun _ _ h => h
/-- a key that no entry can have isn't there -/
theorem look_miss {P : Program} {H : Type} {t k e : TypeId} {d : TypeDesc} {R : Value → Option (DataW H × List MemPlace)} {es : Array MapEntry} {clock b : Nat} {w : World} {z : Value} (c : Bool) (hd : P.underlying k = some d) (hkp : ∀ v, keyOf P k v = mapKey P k v) (ht : P.underlying t = some (.map k e)) (hz : (zeroValue e).run P w = .ok z w)
    (hb : w.heap[b]? = some (.map es clock)) (F : WideElems.Fit P k R es clock) {key : Value} (hkey : MapKept.IsKey d key) (hno : keyOf P k key = none) :
    (Instr.lookup t (.map (some b)) key c).run P w = .ok (if c then .tuple #[z, .bool false] else z) w := by
  have hks : ∀ x ∈ es.toList, MapKept.IsKey d x.key := fun x hx => by
    obtain ⟨l, hl⟩ := F.keys x hx
    rw [hkp] at hl
    obtain ⟨d', hd', h1, -⟩ := WideShapes.mapKey_isKey hl
    rw [hd] at hd'
    cases hd'
    exact h1
  rcases MapKept.findNow_spec hkey es.toList 0 hks with ⟨h1, -⟩ | ⟨j, e0, -, h2, h3⟩
  · simp [Instr.lookup, run_underlying ht, MapKept.run_getObj_map hb, MapKept.run_checkKey hd hkey, MapKept.run_findKey hd h1, hz, Result.andThen]
  · obtain ⟨l, hl⟩ := F.keys e0 (List.mem_of_getElem? h2)
    rw [h3, hno] at hl
    cases hl
theorem at_miss {P : Program} {H : Type} {k : TypeId} {R : Value → Option (DataW H × List MemPlace)} {es : Array MapEntry} {clock : Nat} (K : Keyed P k) (F : WideElems.Fit P k R es clock) (kl : Lit) (hkl : WideAt.IsKeyLit kl) (hno : ∀ v, keyOf P k v ≠ some kl) (zd : DataW H) :
    (DataW.map ((es.toList.map (WideElems.rg P k R)).foldr DataW.insert [])).atKey kl zd = zd := by
  refine (WideShapes.atKey_sorted (es.toList.map (WideElems.rg P k R)) (fit_rising K F) kl hkl).1 (fun p hp e1 => ?_) zd
  obtain ⟨x, hx, rfl⟩ := List.mem_map.1 hp
  obtain ⟨y, hy⟩ := F.reads x hx
  have m1 := WideElems.rd_key hy
  rw [WideElems.rg_of hy] at e1
  rw [e1] at m1
  exact hno _ m1
theorem zero_cnt (w : World) : (zeroValue 3).run Tryz.prog w = .ok (.int .i64 0) w := by kernel_rfl
section
variable {ops : Array Oper} {rest : List Oper} {o : Oper} {a : Act} {w0 w : World} {Q : Exit → Act → World → Prop} {R : Own} {b n : Nat} {f : Txt → Nat}
set_option maxRecDepth 100000 in
/-- a look-up -/
theorem run_look_cnt (hM : Made w0 w (Sep (CntO b n f) R)) (s : ByteArray) : (Instr.lookup 42 (.map (some b)) (.string s) false).run Tryz.prog w = .ok (.int .i64 (f s.data.toList : Int)) w := by
  obtain ⟨F, ⟨⟨D, h1, h2, h3⟩, -⟩, -, -⟩ := hM.first
  have hkp : ∀ v, keyOf Tryz.prog 9 v = mapKey Tryz.prog 9 v := fun v => by simp [keyOf, Tryz.underlying9]
  by_cases hs : s.size ≤ maxLen
  case neg =>
    obtain ⟨es, cl, hb, hF, hn, rfl⟩ := h1
    have hno : ∀ v, keyOf Tryz.prog 9 v ≠ some (.string s.data.toList) := fun v hv => by
      rw [hkp] at hv
      unfold mapKey at hv
      rw [Tryz.underlying9] at hv
      cases v <;> simp at hv
      obtain ⟨h5, h6⟩ := hv
      exact hs (by rw [Lib.size_eq, ← h6, ← Lib.size_eq]; exact h5)
    have h4 := h3 s.data.toList
    rw [at_miss (string_keyed Tryz.underlying9) hF (.string s.data.toList) trivial hno] at h4
    simp only [DataW.lit.injEq, Lit.int.injEq, true_and] at h4
    rw [← h4]
    exact look_miss false Tryz.underlying9 hkp Tryz.underlying42 (zero_cnt w) hb hF trivial (by rw [hkp]; unfold mapKey; rw [Tryz.underlying9]; simp [hs])
  obtain ⟨c, hr, hc, -⟩ := h1.lookup_int (string_keyed Tryz.underlying9) Tryz.underlying42 Tryz.underlying3 (zero_cnt w) (keyOf_string_mk Tryz.underlying9 hs)
  rw [h3] at hc
  simp only [DataW.lit.injEq, Lit.int.injEq, true_and] at hc
  rw [hc]; exact hr
theorem wpList_look_cnt (hg : o.guard = none) (m x : Operand) (hop : o.op = Op.lookup 42 m x false) (hM : Made w0 w (Sep (CntO b n f) R)) (hm : a.eval m = .map (some b)) (s : ByteArray) (hx : a.eval x = .string s)
    (hK : wpList Tryz.prog ops Q rest (a.put o.dst (.int .i64 (f s.data.toList : Int))) w) : wpList Tryz.prog ops Q (o :: rest) a w := by
  refine wpList_plain hg fun K' hK' => ?_
  unfold Oper.wp
  simp [execOp, hop, hm, hx, run_look_cnt hM s, Result.andThen]
  exact hK' _ _ hK
/-- a store -/
def updN (f : Txt → Nat) (s : Txt) (c : Nat) : Txt → Nat := fun u => if u = s then c else f u
theorem wpList_store_cnt (hg : o.guard = none) (m x v : Operand) (hop : o.op = Op.mapUpdate 42 m x v) (hM : Made w0 w (Sep (CntO b n f) R)) (hR : Lies R) (hn : n ≤ 16777216) (hm : a.eval m = .map (some b)) (s : ByteArray) (hs : s.size ≤ 16777216) (hx : a.eval x = .string s) (q : Int) (hv : a.eval v = .int .i64 q) (c : Nat) (hc : c ≤ 16777216) (hq : q = (c : Int))
    (hK : ∀ w', Made w0 w' (Sep (CntO b (n + 1) (updN f s.data.toList c)) R) → wpList Tryz.prog ops Q rest (a.put o.dst undef) w') : wpList Tryz.prog ops Q (o :: rest) a w := by
  subst hq
  obtain ⟨F, ⟨⟨D, h1, h2, h3⟩, hF⟩, -, hk⟩ := hM.first
  have hw : (Lit.int .i64 (c : Int)).wf = true := by
    have e1 : IntKind.i64.min = -9223372036854775808 := by decide
    have e2 : IntKind.i64.max = 9223372036854775807 := by decide
    show (decide (IntKind.i64.min ≤ (c : Int)) && decide ((c : Int) ≤ IntKind.i64.max)) = true
    rw [e1, e2, decide_eq_true (by omega), decide_eq_true (by omega)]; rfl
  refine wpList_mapUpdate_own w hg m x v 42 hop 9 3 (string_keyed Tryz.underlying9) Tryz.underlying42 (plainElem Tryz.prog 3) b n D hm h1 (by unfold maxLen; omega) (.string s) (.int .i64 (c : Int)) _ hx hv (keyOf_string_mk Tryz.underlying9 (by unfold maxLen; omega)) (.lit (.int .i64 (c : Int))) [] (plainElem_int Tryz.underlying3 hw) ?_
  intro w' h1' hgr
  refine hK w' (hk w' (CntO b (n + 1) (updN f s.data.toList c)) (fun k => k = b) hR ⟨⟨_, h1', h2.put _ _, fun u => ?_⟩, fun _ => Iff.rfl⟩ ⟨hgr.os, hgr.tape, hgr.output, hgr.size, fun k hkk hFk => hgr.block k hkk (fun e => hFk ((hF k).2 (Option.some.inj e))), fun k hkk => .inl ((hF k).2 hkk)⟩)
  show _ = DataW.lit (Lit.int .i64 ((if u = s.data.toList then c else f u : Nat) : Int))
  by_cases hu : u = s.data.toList
  · rw [if_pos hu, hu]
    exact atKey_put_same h2 (show WideAt.IsKeyLit (.string s.data.toList) from trivial) _ _
  · rw [if_neg hu, atKey_put_other (fun e => hu (by injection e)) _ _, h3]
end

/-! functions by numbers -/
def heldE (v : Value) : Option (DataW Value × List MemPlace) := some (.held v, [])
def MapFn (w : World) (b n : Nat) (z : Value) (f : Int → Option Value) : Prop :=
  ∃ D : DataW Value, w.ownsMap Tryz.prog 3 heldE b n D ∧ IsMap D ∧ ∀ k : Int, D.atKey (.int .i64 k) (.held z) = .held ((f k).getD z) ∧ Maps.has D (.int .i64 k) = (f k).isSome
theorem mapFn_made (w : World) (z : Value) : MapFn (w.alloc (.map #[] 0)) w.heap.size 0 z (fun _ => none) :=
  ⟨.map [], World.ownsMap_made _ _ _ _, isMap_empty, fun _ => ⟨rfl, rfl⟩⟩
theorem MapFn.lt {w : World} {b n : Nat} {z : Value} {f : Int → Option Value} (h : MapFn w b n z f) : b < w.heap.size := by
  obtain ⟨D, h1, -⟩ := h
  exact h1.lt
theorem MapFn.same {w w' : World} {b n : Nat} {z : Value} {f : Int → Option Value} (h : MapFn w b n z f) (hb : w'.heap[b]? = w.heap[b]?) : MapFn w' b n z f := by
  obtain ⟨D, ⟨es, cl, h1, h4⟩, h2⟩ := h
  exact ⟨D, ⟨es, cl, hb.trans h1, h4⟩, h2⟩
/-- the same as an object -/
def FnO (b n : Nat) (z : Value) (f : Int → Option Value) : Own := fun w F => MapFn w b n z f ∧ ∀ k, F k ↔ k = b
theorem fnO_lies (b n : Nat) (z : Value) (f : Int → Option Value) : Lies (FnO b n z f) := by
  refine ⟨?_, ?_⟩
  · rintro w F ⟨h, hF⟩ k hk
    rw [(hF k).1 hk]; exact h.lt
  · rintro w w' F ⟨h, hF⟩ hk
    exact ⟨h.same (hk b ((hF b).2 rfl)), hF⟩
theorem fnO_made {w0 w : World} {R : Own} (h : Made w0 w R) (hR : Lies R) (z : Value) : Made w0 (w.alloc (.map #[] 0)) (Sep (FnO w.heap.size 0 z (fun _ => none)) R) :=
  h.more hR ((Below.refl w.heap.size w).alloc (Nat.le_refl _) _) (S := FnO w.heap.size 0 z (fun _ => none)) (F := fun k => k = w.heap.size) ⟨mapFn_made w z, fun _ => Iff.rfl⟩ (fun k hk => by omega)
theorem fnO_is {w0 w : World} {b n : Nat} {z : Value} {f : Int → Option Value} {R : Own} (h : Made w0 w (Sep (FnO b n z f) R)) : MapFn w b n z f := by
  obtain ⟨F, hF, -, -⟩ := h.first
  exact hF.1
section
variable {ops : Array Oper} {rest : List Oper} {o : Oper} {a : Act} {w : World} {Q : Exit → Act → World → Prop} {b n : Nat} {z : Value} {f : Int → Option Value}
theorem wpList_insert_fn (hg : o.guard = none) (t e : TypeId) (ht : Tryz.prog.underlying t = some (.map 3 e)) (m x v : Operand) (hop : o.op = Op.insert t m x v) (hown : MapFn w b n z f) (hn : n ≤ 100) (hm : a.eval m = .map (some b)) (k : Int) (hw : (Lit.int .i64 k).wf = true) (hx : a.eval x = .int .i64 k) (F : Value) (hv : a.eval v = F)
    (hK : ∀ w', MapFn w' b (n + 1) z (fun j => if j = k then some F else f j) → w.grownBy w' (some b) → wpList Tryz.prog ops Q rest (a.put o.dst undef) w') : wpList Tryz.prog ops Q (o :: rest) a w := by
  obtain ⟨D, h1, h2, h3⟩ := hown
  obtain ⟨w', hrun, r, g⟩ := h1.update (int_keyed Tryz.underlying3) ht (by unfold maxLen; omega) (keyOf_int_mk Tryz.underlying3 hw) (show heldE F = some (.held F, []) from rfl)
  refine wpList_plain hg fun K' hK' => ?_
  unfold Oper.wp
  simp [execOp, hop, hm, hx, hv, hrun, Result.andThen]
  refine hK' _ _ (hK w' ⟨_, r, h2.put _ _, fun j => ?_⟩ g)
  by_cases hu : j = k
  · simp only [if_pos hu]
    rw [hu]
    exact ⟨atKey_put_same h2 (show WideAt.IsKeyLit (.int .i64 k) from trivial) _ _, has_put_same h2 (show WideAt.IsKeyLit (.int .i64 k) from trivial) _⟩
  · simp only [if_neg hu]
    rw [atKey_put_other (fun e => hu (by injection e)) _ _, has_put_other (fun e => hu (by injection e)) _]
    exact h3 j
set_option maxRecDepth 100000 in
theorem wpList_look_fn (hg : o.guard = none) (t e : TypeId) (ht : Tryz.prog.underlying t = some (.map 3 e)) (hz : (zeroValue e).run Tryz.prog w = .ok z w) (m x : Operand) (hop : o.op = Op.lookup t m x true) (hown : MapFn w b n z f) (hm : a.eval m = .map (some b)) (k : Int) (hx : a.eval x = .int .i64 k)
    (hK : wpList Tryz.prog ops Q rest (a.put o.dst (.tuple #[(f k).getD z, .bool (f k).isSome])) w) : wpList Tryz.prog ops Q (o :: rest) a w := by
  obtain ⟨D, h1, h2, h3⟩ := hown
  obtain ⟨e1, e2⟩ := h3 k
  have hkp : ∀ v, keyOf Tryz.prog 3 v = mapKey Tryz.prog 3 v := fun v => by simp [keyOf, Tryz.underlying3]
  by_cases hw : (Lit.int .i64 k).wf = true
  case neg =>
    obtain ⟨es, cl, hb, hF, hn, rfl⟩ := h1
    have hno : ∀ v, keyOf Tryz.prog 3 v ≠ some (.int .i64 k) := fun v hv => by
      rw [hkp] at hv
      unfold mapKey at hv
      rw [Tryz.underlying3] at hv
      cases v <;> simp at hv
      obtain ⟨⟨h5, h6⟩, h7⟩ := hv
      subst h5; subst h7
      exact hw h6
    have h4 := at_miss (int_keyed Tryz.underlying3) hF (.int .i64 k) trivial hno (.held z)
    rw [e1] at h4
    have e3 : (f k).isSome = false := by rw [← e2]; exact has_false_of_atKey (at_miss (int_keyed Tryz.underlying3) hF (.int .i64 k) trivial hno)
    simp only [DataW.held.injEq] at h4
    rw [h4, e3] at hK
    refine wpList_plain hg fun K' hK' => ?_
    unfold Oper.wp
    simp [execOp, hop, hm, hx, look_miss true Tryz.underlying3 hkp ht hz hb hF (show MapKept.IsKey (.int .i64) (.int .i64 k) from rfl) (by rw [hkp]; unfold mapKey; rw [Tryz.underlying3]; simp [hw]), Result.andThen]
    exact hK' _ _ hK
  refine wpList_lookup_own_ok w hg m x t hop 3 e (int_keyed Tryz.underlying3) ht heldE hz (.held z) [] rfl b n D hm h1 _ _ hx (keyOf_int_mk Tryz.underlying3 hw) ?_
  intro v ps hv
  unfold heldE at hv
  rw [e1] at hv
  simp only [Option.some.injEq, Prod.mk.injEq, DataW.held.injEq] at hv
  rw [hv.1, e2]
  exact hK
def insK (f : Int → Option Value) (k : Int) (F : Value) : Int → Option Value := fun j => if j = k then some F else f j
theorem wpList_insert_fnO {w0 : World} {R : Own} (hg : o.guard = none) (t e : TypeId) (ht : Tryz.prog.underlying t = some (.map 3 e)) (m x v : Operand) (hop : o.op = Op.insert t m x v) (hM : Made w0 w (Sep (FnO b n z f) R)) (hR : Lies R) (hn : n ≤ 100) (hm : a.eval m = .map (some b)) (k : Int) (hw : (Lit.int .i64 k).wf = true) (hx : a.eval x = .int .i64 k) (F : Value) (hv : a.eval v = F)
    (hK : ∀ w', Made w0 w' (Sep (FnO b (n + 1) z (insK f k F)) R) → wpList Tryz.prog ops Q rest (a.put o.dst undef) w') : wpList Tryz.prog ops Q (o :: rest) a w := by
  obtain ⟨F1, ⟨h1, hF⟩, -, hk⟩ := hM.first
  refine wpList_insert_fn hg t e ht m x v hop h1 hn hm k hw hx F hv fun w' h2 hgr => hK w' (hk w' (FnO b (n + 1) z (insK f k F)) F1 hR ⟨h2, hF⟩ (Moves.of_grown hgr ((hF b).2 rfl)))
end
end Go.Proofs.YtbcmfcddkegcoaaGreatDoor

/-! The program's page of layer 19, in blocks of its own: its struct, the row of names that are open, the map of how many, the flow: what its methods do. -/
namespace Go.Proofs.YtbcmfcddkegcoaaGreatDoor
open Go.RowKit Go.Lib

/-! how often a name stands in a list -/
def cntN : List Txt → Txt → Nat
  | [], _ => 0
  | x :: l, t => (if x = t then 1 else 0) + cntN l t
theorem cnt_app (t : Txt) (m : List Txt) : ∀ l : List Txt, cntN (l ++ m) t = cntN l t + cntN m t
  | [] => by show cntN m t = 0 + cntN m t; omega
  | x :: l => by
    show (if x = t then 1 else 0) + cntN (l ++ m) t = (if x = t then 1 else 0) + cntN l t + cntN m t
    rw [cnt_app t m l]; omega
theorem cnt_one (x t : Txt) : cntN [x] t = if x = t then 1 else 0 := by show (if x = t then 1 else 0) + 0 = _; omega
theorem cnt_le (t : Txt) : ∀ l : List Txt, cntN l t ≤ l.length
  | [] => Nat.le_refl _
  | x :: l => by
    have := cnt_le t l
    show (if x = t then 1 else 0) + cntN l t ≤ _
    rw [List.length_cons]
    split <;> omega
theorem cnt_zero (t : Txt) : ∀ l : List Txt, cntN l t = 0 ↔ t ∉ l
  | [] => ⟨fun _ h => (by cases h), fun _ => rfl⟩
  | x :: l => by
    have ih := cnt_zero t l
    show (if x = t then 1 else 0) + cntN l t = 0 ↔ _
    rw [List.mem_cons]
    by_cases hx : x = t
    · rw [if_pos hx]
      exact ⟨fun h => by omega, fun h => absurd (.inl hx.symm) h⟩
    · rw [if_neg hx, Nat.zero_add, ih]
      exact ⟨fun h e => e.elim (fun e => hx e.symm) h, fun h e => h (.inr e)⟩
theorem cnt_filter (nm t : Txt) : ∀ l : List Txt, cntN (l.filter fun x => decide (x ≠ nm)) t = if t = nm then 0 else cntN l t
  | [] => by split <;> rfl
  | x :: l => by
    have ih := cnt_filter nm t l
    rw [List.filter_cons]
    by_cases hx : x = nm
    · rw [if_neg (by simpa using hx), ih]
      by_cases ht : t = nm
      · rw [if_pos ht, if_pos ht]
      · rw [if_neg ht, if_neg ht]
        show _ = (if x = t then 1 else 0) + cntN l t
        rw [if_neg (fun e => ht (by rw [← e, hx]))]; omega
    · rw [if_pos (by simpa using hx)]
      show (if x = t then 1 else 0) + cntN _ t = _
      rw [ih]
      by_cases ht : t = nm
      · rw [if_pos ht, if_pos ht, if_neg (fun e => hx (by rw [e, ht]))]
      · rw [if_neg ht, if_neg ht]; rfl
theorem last_max (nm : Txt) : ∀ (l : List Txt) (k : Nat), lastN l nm = some k → ∀ j (h : j < l.length), k < j → l[j] ≠ nm
  | [], _, h => by cases h
  | x :: l, k, h => by
    intro j hj hkj
    obtain ⟨i, rfl⟩ : ∃ i, j = i + 1 := ⟨j - 1, by omega⟩
    rw [List.getElem_cons_succ]
    have hi : i < l.length := by simpa using hj
    unfold lastN at h
    cases h1 : lastN l nm with
    | some q =>
      rw [h1] at h
      have : q + 1 = k := by simpa using h
      exact last_max nm l q h1 i hi (by omega)
    | none =>
      intro e
      exact (last_mem nm l).1 h1 (e ▸ List.getElem_mem hi)

/-! the page -/
def pageC (g : Addr) (v : Value) (b : Nat) (k : Nat) : Obj := .cells #[.pointer (some g), v, .map (some b), .int .i64 (k : Int)] 45 (0, 0)
def PageS (pg : Nat) (g : Addr) (b : Nat) (v : Value) (l : List Txt) (k : Nat) (fl : FloP) (n : Nat) (f : Txt → Nat) (R : Own) : Own :=
  Sep (CellO pg (pageC g v b k)) (Sep (StrO v l) (Sep (CntO b n f) (Sep (FloO g fl) R)))
theorem Made.fourth {w0 w : World} {A B C D R : Own} (h : Made w0 w (Sep A (Sep B (Sep C (Sep D R))))) : Made w0 w (Sep D (Sep A (Sep B (Sep C R)))) :=
  (h.imp (Imp.right A (Imp.right B (Imp.turn C D R)))).third
theorem Made.fourthB {w0 w : World} {A B C D R : Own} (h : Made w0 w (Sep D (Sep A (Sep B (Sep C R))))) : Made w0 w (Sep A (Sep B (Sep C (Sep D R)))) :=
  h.back.imp (Imp.right A (Imp.right B (Imp.turn D C R)))
theorem Imp.left {S S' : Own} (T : Own) (h : Imp S S') : Imp (Sep S T) (Sep S' T) := by
  rintro w F ⟨F1, F2, h1, h2, hd, hF⟩
  exact ⟨F1, F2, h w F1 h1, h2, hd, hF⟩
theorem cellO_set {w0 w : World} {pg : Nat} {cs : Array Value} {T : TypeId} {S : Own} (h : Made w0 w (Sep (CellO pg (.cells cs T (0, 0))) S)) (hS : Lies S) (i : Nat) (x : Value) :
    Made w0 (w.setCell ⟨pg, i, none⟩ x) (Sep (CellO pg (.cells (cs.setIfInBounds i x) T (0, 0))) S) := by
  obtain ⟨F, hF, -, hk⟩ := h.first
  exact hk _ (CellO pg (.cells (cs.setIfInBounds i x) T (0, 0))) F hS ⟨Go.heap_setCell_same w pg i cs T x hF.1, hF.2⟩ (Moves.of_grown (grown_setCell w pg i x) ((hF.2 pg).2 rfl))
/-- a shorter piece of a row -/
theorem strO_cut {w0 w : World} {a : Option Addr} {n c m : Nat} {l : List Txt} {S : Own} (h : Made w0 w (Sep (StrO (.slice a n c) l) S)) (hm : m ≤ l.length) : Made w0 w (Sep (StrO (.slice a m c) (l.take m)) S) := by
  refine h.imp ?_
  rintro w F ⟨F1, F2, ⟨h1, hF1⟩, h2, hd, hF⟩
  refine ⟨F1, F2, ⟨⟨by rw [strsV_len, Nat.mul_one], ?_⟩, fun k => ?_⟩, h2, hd, hF⟩
  · rcases h1.2 with ⟨e, e0⟩ | ⟨g, cap, cur, e, hb, hg, hn, hmx, hs, ht⟩
    · injection e with e1 e2 e3
      subst e1; subst e3
      obtain rfl : m = 0 := by omega
      exact .inl ⟨rfl, by simp⟩
    · injection e with e1 e2 e3
      subst e1; subst e3
      have hl : (l.take m).length = m := by rw [List.length_take]; omega
      refine .inr ⟨g, c, cur, by rw [hl], hb, hg, by omega, hmx, hs, ?_⟩
      have e4 : strsV (l.take m) = (strsV l).take m := by unfold strsV; rw [List.map_take]
      rw [hl, e4, ← ht, Nat.mul_one, Nat.mul_one, List.take_take, Nat.min_eq_left hm]
  · rw [hF1 k]
    cases a <;> rfl
section
variable {w0 w : World} {pg : Nat} {g : Addr} {b : Nat} {v : Value} {l : List Txt} {k : Nat} {fl : FloP} {n : Nat} {f : Txt → Nat} {R S : Own}
theorem page_lies (pg : Nat) (g : Addr) (b : Nat) (v : Value) (l : List Txt) (k : Nat) (fl : FloP) (n : Nat) (f : Txt → Nat) (hR : Lies R) : Lies (PageS pg g b v l k fl n f R) :=
  (cellO_lies pg _).sep ((strO_lies v l).sep ((cntO_lies b n f).sep ((floO_lies g fl).sep hR)))
theorem page_cells (h : Made w0 w (Sep (CellO pg (pageC g v b k)) S)) : w.cell? ⟨pg, 0, none⟩ = some (.pointer (some g)) ∧ w.cell? ⟨pg, 1, none⟩ = some v ∧ w.cell? ⟨pg, 2, none⟩ = some (.map (some b)) ∧ w.cell? ⟨pg, 3, none⟩ = some (.int .i64 (k : Int)) := by
  have h1 := cellO_is h
  unfold pageC at h1
  refine ⟨?_, ?_, ?_, ?_⟩ <;> (rw [Lib.cell_of_heap h1]; rfl)
theorem page_thawed (h : Made w0 w (Sep (CellO pg (pageC g v b k)) S)) (i : Nat) : w.frozen? ⟨pg, i, none⟩ = false := Lib.frozen_of_heap (cellO_is h) i
/-- the names' field stored -/
theorem wpList_store_open {ops : Array Oper} {rest : List Oper} {o : Oper} {a : Act} {Q : Exit → Act → World → Prop} (hg : o.guard = none) (x y : Operand) (ho : o.op = .store 43 x y) (hM : Made w0 w (Sep (CellO pg (pageC g v b k)) S)) (hS : Lies S)
    (hx : a.eval x = .pointer (some ⟨pg, 1, none⟩)) (ad : Option Addr) (m c : Nat) (v' : Value) (hy : a.eval y = v') (hv : v' = .slice ad m c)
    (hK : ∀ w', Made w0 w' (Sep (CellO pg (pageC g v' b k)) S) → wpList Tryz.prog ops Q rest (a.put o.dst undef) w') : wpList Tryz.prog ops Q (o :: rest) a w := by
  subst hv
  refine wpList_plain hg fun K' hK' => ?_
  unfold Oper.wp execOp
  have h1 := cellO_is hM
  unfold pageC at h1
  simp only [ho, hx, hy, Instr.storeAt, Instr.sureAddr, Sem.run_bind, Sem.run_pure, Result.andThen_ok, run_storeVar_one (P := Tryz.prog) pg 1 _ _ 43 (.slice ad m c) h1 (by simp) (by kernel_rfl) rfl rfl]
  exact hK' _ _ (hK _ (cellO_set hM hS 1 _))
/-! what the flow's methods do to it -/
theorem pageLine (hM : Made w0 w (PageS pg g b v l k fl n f R)) (hR : Lies R) (hs : fl.size ≤ 1073741824) :
    Calls Tryz.prog 60 #[.pointer (some g)] w fun e w' => e = .returned (.tuple #[]) ∧ Made w0 w' (PageS pg g b v l k (lineF fl) n f R) := by
  refine (Made.call hM.fourth ((cellO_lies pg _).sep ((strO_lies v l).sep ((cntO_lies b n f).sep hR))) (S' := FloO g (lineF fl)) (Q := fun e => e = .returned (.tuple #[])) fun F hF => floLine_any g fl w F hF hs).mono ?_
  rintro e w' ⟨rfl, m⟩
  exact ⟨rfl, m.fourthB⟩
theorem pageBreak (hM : Made w0 w (PageS pg g b v l k fl n f R)) (hR : Lies R) (hs : fl.size ≤ 1073741824) (m : Int) (hm : -9223372036854775808 ≤ m ∧ m ≤ 9223372036854775807) :
    Calls Tryz.prog 62 #[.pointer (some g), .int .i64 m] w fun e w' => e = .returned (.tuple #[]) ∧ Made w0 w' (PageS pg g b v l k (brkF m fl) n f R) := by
  refine (Made.call hM.fourth ((cellO_lies pg _).sep ((strO_lies v l).sep ((cntO_lies b n f).sep hR))) (S' := FloO g (brkF m fl)) (Q := fun e => e = .returned (.tuple #[])) fun F hF => floBreak_any g fl m w F hF hs hm).mono ?_
  rintro e w' ⟨rfl, m⟩
  exact ⟨rfl, m.fourthB⟩
theorem pagePut (hM : Made w0 w (PageS pg g b v l k fl n f R)) (hR : Lies R) (s : ByteArray) (keep : Bool) (hs : fl.size + s.size ≤ 1073741824) :
    Calls Tryz.prog 41 #[.pointer (some g), .string s, .bool keep] w fun e w' => e = .returned (.tuple #[]) ∧ Made w0 w' (PageS pg g b v l k (putL keep fl s.data.toList) n f R) := by
  refine (Made.call hM.fourth ((cellO_lies pg _).sep ((strO_lies v l).sep ((cntO_lies b n f).sep hR))) (S' := FloO g (putL keep fl s.data.toList)) (Q := fun e => e = .returned (.tuple #[])) fun F hF => floPut_any g fl s keep w F hF hs).mono ?_
  rintro e w' ⟨rfl, m⟩
  exact ⟨rfl, m.fourthB⟩
theorem pageText (hM : Made w0 w (PageS pg g b v l k fl n f R)) (hR : Lies R) (hs : fl.size ≤ 1073741824) :
    Calls Tryz.prog 16 #[.pointer (some g)] w fun e w' => e = .returned (.string ⟨fl.told.toArray⟩) ∧ Made w0 w' (PageS pg g b v l k fl n f R) := by
  refine (Made.call hM.fourth ((cellO_lies pg _).sep ((strO_lies v l).sep ((cntO_lies b n f).sep hR))) (S' := FloO g fl) (Q := fun e => e = .returned (.string ⟨fl.told.toArray⟩)) fun F hF => floText_any g fl w F hF hs).mono ?_
  rintro e w' ⟨rfl, m⟩
  exact ⟨rfl, m.fourthB⟩
end

/-! its own methods -/
set_option maxRecDepth 100000 in
set_option maxHeartbeats 1000000 in
theorem hidden_any {w0 w : World} {pg : Nat} {g : Addr} {b : Nat} {v : Value} {l : List Txt} {k : Nat} {fl : FloP} {n : Nat} {f : Txt → Nat} {R : Own} (hM : Made w0 w (PageS pg g b v l k fl n f R)) :
    Calls Tryz.prog 35 #[.pointer (some ⟨pg, 0, none⟩)] w fun e w' => e = .returned (.bool (decide (l ≠ []))) ∧ w' = w := by
  obtain ⟨c0, c1, c2, c3⟩ := page_cells hM
  obtain ⟨a, cap, hv, -⟩ := strO_is hM.turn
  subst hv
  obtain ⟨m, hm⟩ : ∃ m, l.length = m := ⟨_, rfl⟩
  have hd : decide (0 < m) = decide (l ≠ []) := by
    rw [← hm]
    exact Bool.eq_iff_iff.2 (by rw [decide_eq_true_iff, decide_eq_true_iff]; exact List.length_pos_iff)
  obtain ⟨B, hB⟩ : ∃ B, decide (l ≠ []) = B := ⟨_, rfl⟩
  rw [hB] at hd ⊢
  rw [hm] at c1
  have HD := Lib.hid hd
  clear hM c0 c2 c3 hm hB hd
  go_enter Tryz.func35, Tryz.ntmps35
  go_wp2
  go_ret
  exact ⟨ret_bool HD.out, rfl⟩

set_option maxRecDepth 100000 in
set_option maxHeartbeats 2000000 in
theorem part_any {w0 w : World} {pg : Nat} {g : Addr} {b : Nat} {v : Value} {l : List Txt} {k : Nat} {fl : FloP} {n : Nat} {f : Txt → Nat} {R : Own} (hM : Made w0 w (PageS pg g b v l k fl n f R)) (hR : Lies R) (nm : ByteArray) (hs : fl.size ≤ 1073741000) :
    Calls Tryz.prog 36 #[.pointer (some ⟨pg, 0, none⟩), .string nm] w fun e w' => e = .returned (.tuple #[]) ∧ Made w0 w' (PageS pg g b v l k (linesF nm.data.toList fl) n f R) := by
  have H := Lib.hid hM
  have hb2 : (nm.toList == [98, 114]) = decide (nm.data.toList = brL) := by
    rw [ByteArray.toList_eq]
    exact Bool.eq_iff_iff.2 (by rw [beq_iff_eq, decide_eq_true_iff]; exact Iff.rfl)
  have hs1 := line_size fl
  have hbr : (brF nm.data.toList fl).size ≤ fl.size + 1 := by unfold brF; split <;> omega
  have hlr := lin_range nm.data.toList
  have C1 := fun w' h => Lib.hid (pageLine (w0 := w0) (w := w') (pg := pg) (g := g) (b := b) (v := v) (l := l) (k := k) (fl := fl) (n := n) (f := f) (R := R) h hR (by omega))
  have C2 := fun w' h => Lib.hid (pageBreak (w0 := w0) (w := w') (pg := pg) (g := g) (b := b) (v := v) (l := l) (k := k) (fl := brF nm.data.toList fl) (n := n) (f := f) (R := R) h hR (by omega) (linN nm.data.toList) (by omega))
  have CL := fun w => Lib.hid (kLines_any nm w (knd_here w))
  have HP := Lib.hid (fun fl => page_lies pg g b v l k fl n f hR)
  have hlf : linesF nm.data.toList fl = if 0 < linN nm.data.toList then brkF (linN nm.data.toList) (brF nm.data.toList fl) else brF nm.data.toList fl := rfl
  obtain ⟨G, hG⟩ : ∃ G, linesF nm.data.toList fl = G := ⟨_, rfl⟩
  obtain ⟨B, hB⟩ : ∃ B, brF nm.data.toList fl = B := ⟨_, rfl⟩
  obtain ⟨N, hN⟩ : ∃ N, linN nm.data.toList = N := ⟨_, rfl⟩
  have hbe : B = if nm.data.toList = brL then lineF fl else fl := by rw [← hB]; rfl
  rw [hG, hN, hB] at hlf
  rw [hN, hB] at C2
  rw [hN] at CL hlr
  rw [hG]
  clear hG hB hN hM hs hs1 hbr hR
  obtain ⟨c0, c1, c2, c3⟩ := page_cells H.out
  clear c1 c2 c3
  by_cases hx : nm.data.toList = brL
  · rw [decide_eq_true hx] at hb2
    rw [if_pos hx] at hbe
    rw [← hbe] at C1
    clear hx hbe
    by_cases hn : 0 < N
    · rw [if_pos hn] at hlf
      rw [← hlf] at C2
      have hn2 : (N == 0) = false := beq_eq_false_iff_ne.2 (by omega)
      have hn3 : (N != 0) = true := by rw [bne, hn2]; rfl
      clear hlf
      go_enter Tryz.func36, Tryz.ntmps36
      go_wp2_with (fail)
      refine (C1 _ H.out).out.mono ?_
      rintro e w1 ⟨rfl, m1⟩
      have M1 := Lib.hid m1
      clear m1 c0
      go_wp2_with (fail)
      refine (CL _).out.mono ?_
      rintro e w2 ⟨rfl, b2⟩
      have M2 := Lib.hid (M1.out.below (HP.out _) b2)
      obtain ⟨c0, c1, c2, c3⟩ := page_cells M2.out
      clear b2 c1 c2 c3
      go_wp2_with (fail)
      refine (C2 _ M2.out).out.mono ?_
      rintro e w3 ⟨rfl, m3⟩
      go_wp2
      refine bodyPost_end (results_none rfl _ _ _) rfl ?_
      exact ⟨rfl, m3⟩
    · rw [if_neg hn] at hlf
      obtain rfl : N = 0 := by omega
      subst hlf
      go_enter Tryz.func36, Tryz.ntmps36
      go_wp2_with (fail)
      refine (C1 _ H.out).out.mono ?_
      rintro e w1 ⟨rfl, m1⟩
      have M1 := Lib.hid m1
      clear m1 c0
      go_wp2_with (fail)
      refine (CL _).out.mono ?_
      rintro e w2 ⟨rfl, b2⟩
      have M2 := Lib.hid (M1.out.below (HP.out _) b2)
      clear b2
      go_wp2
      refine bodyPost_end (results_none rfl _ _ _) rfl ?_
      exact ⟨rfl, M2.out⟩
  · rw [decide_eq_false hx] at hb2
    rw [if_neg hx] at hbe
    subst hbe
    clear hx C1
    by_cases hn : 0 < N
    · rw [if_pos hn] at hlf
      rw [← hlf] at C2
      have hn2 : (N == 0) = false := beq_eq_false_iff_ne.2 (by omega)
      have hn3 : (N != 0) = true := by rw [bne, hn2]; rfl
      clear hlf c0
      go_enter Tryz.func36, Tryz.ntmps36
      go_wp2_with (fail)
      refine (CL _).out.mono ?_
      rintro e w2 ⟨rfl, b2⟩
      have M2 := Lib.hid (H.out.below (HP.out _) b2)
      obtain ⟨c0, c1, c2, c3⟩ := page_cells M2.out
      clear b2 c1 c2 c3
      go_wp2_with (fail)
      refine (C2 _ M2.out).out.mono ?_
      rintro e w3 ⟨rfl, m3⟩
      go_wp2
      refine bodyPost_end (results_none rfl _ _ _) rfl ?_
      exact ⟨rfl, m3⟩
    · rw [if_neg hn] at hlf
      obtain rfl : N = 0 := by omega
      subst hlf
      clear c0
      go_enter Tryz.func36, Tryz.ntmps36
      go_wp2_with (fail)
      refine (CL _).out.mono ?_
      rintro e w2 ⟨rfl, b2⟩
      have M2 := Lib.hid (H.out.below (HP.out _) b2)
      clear b2
      go_wp2
      refine bodyPost_end (results_none rfl _ _ _) rfl ?_
      exact ⟨rfl, M2.out⟩

set_option maxRecDepth 100000 in
set_option maxHeartbeats 2000000 in
theorem keepMore_any {w0 w : World} {pg : Nat} {g : Addr} {b : Nat} {v : Value} {l : List Txt} {k : Nat} {fl : FloP} {n : Nat} {f : Txt → Nat} {R : Own} (hM : Made w0 w (PageS pg g b v l k fl n f R)) (hR : Lies R) (nm : ByteArray) (hk : k ≤ 1000000) :
    Calls Tryz.prog 37 #[.pointer (some ⟨pg, 0, none⟩), .string nm, .int .i64 1] w fun e w' => e = .returned (.tuple #[]) ∧ Made w0 w' (PageS pg g b v l (k + oneIf (keeN nm.data.toList)) fl n f R) := by
  have CK := fun w => Lib.hid (kKeeps_any nm w (knd_here w))
  have H := Lib.hid hM
  have HP := Lib.hid (page_lies pg g b v l k fl n f hR)
  have HT := Lib.hid ((strO_lies v l).sep ((cntO_lies b n f).sep ((floO_lies g fl).sep hR)))
  obtain ⟨kb, hkb⟩ : ∃ kb, keeN nm.data.toList = kb := ⟨_, rfl⟩
  rw [hkb] at CK ⊢
  clear hkb hM hR
  cases kb
  · go_enter Tryz.func37, Tryz.ntmps37
    go_wp2_with (fail)
    refine (CK _).out.mono ?_
    rintro e w2 ⟨rfl, b2⟩
    have M2 := Lib.hid (H.out.below HP.out b2)
    clear b2
    go_wp2
    refine bodyPost_end (results_none rfl _ _ _) rfl ?_
    exact ⟨rfl, M2.out⟩
  · have e1 : max (0 : Int) ((k : Int) + 1) = (k : Int) + 1 := by omega
    go_enter Tryz.func37, Tryz.ntmps37
    go_wp2_with (fail)
    refine (CK _).out.mono ?_
    rintro e w2 ⟨rfl, b2⟩
    have M2 := Lib.hid (H.out.below HP.out b2)
    obtain ⟨c0, c1, c2, c3⟩ := page_cells M2.out
    have f3 := page_thawed M2.out 3
    have M3 := Lib.hid (cellO_set M2.out HT.out 3 (.int .i64 ((k : Int) + 1)))
    clear b2 c0 c1 c2
    go_wp2
    refine bodyPost_end (results_none rfl _ _ _) rfl ?_
    exact ⟨rfl, M3.out⟩

set_option maxRecDepth 100000 in
set_option maxHeartbeats 2000000 in
theorem keepLess_any {w0 w : World} {pg : Nat} {g : Addr} {b : Nat} {v : Value} {l : List Txt} {k : Nat} {fl : FloP} {n : Nat} {f : Txt → Nat} {R : Own} (hM : Made w0 w (PageS pg g b v l k fl n f R)) (hR : Lies R) (nm : ByteArray) (hk : k ≤ 1000000) :
    Calls Tryz.prog 37 #[.pointer (some ⟨pg, 0, none⟩), .string nm, .int .i64 (-1)] w fun e w' => e = .returned (.tuple #[]) ∧ Made w0 w' (PageS pg g b v l (k - oneIf (keeN nm.data.toList)) fl n f R) := by
  have CK := fun w => Lib.hid (kKeeps_any nm w (knd_here w))
  have H := Lib.hid hM
  have HP := Lib.hid (page_lies pg g b v l k fl n f hR)
  have HT := Lib.hid ((strO_lies v l).sep ((cntO_lies b n f).sep ((floO_lies g fl).sep hR)))
  obtain ⟨kb, hkb⟩ : ∃ kb, keeN nm.data.toList = kb := ⟨_, rfl⟩
  rw [hkb] at CK ⊢
  clear hkb hM hR
  cases kb
  · go_enter Tryz.func37, Tryz.ntmps37
    go_wp2_with (fail)
    refine (CK _).out.mono ?_
    rintro e w2 ⟨rfl, b2⟩
    have M2 := Lib.hid (H.out.below HP.out b2)
    clear b2
    go_wp2
    refine bodyPost_end (results_none rfl _ _ _) rfl ?_
    exact ⟨rfl, M2.out⟩
  · obtain ⟨q, hq⟩ : ∃ q : Nat, k - oneIf true = q := ⟨_, rfl⟩
    have e1 : max (0 : Int) ((k : Int) + -1) = (q : Int) := by rw [← hq]; unfold oneIf; rw [if_pos rfl]; omega
    rw [hq]
    clear hq
    go_enter Tryz.func37, Tryz.ntmps37
    go_wp2_with (fail)
    refine (CK _).out.mono ?_
    rintro e w2 ⟨rfl, b2⟩
    have M2 := Lib.hid (H.out.below HP.out b2)
    obtain ⟨c0, c1, c2, c3⟩ := page_cells M2.out
    have f3 := page_thawed M2.out 3
    have M3 := Lib.hid (cellO_set M2.out HT.out 3 (.int .i64 (q : Int)))
    clear b2 c0 c1 c2
    go_wp2
    refine bodyPost_end (results_none rfl _ _ _) rfl ?_
    exact ⟨rfl, M3.out⟩
end Go.Proofs.YtbcmfcddkegcoaaGreatDoor

/-! The program's page of layer 19: names opened, left, uncovered. -/
namespace Go.Proofs.YtbcmfcddkegcoaaGreatDoor
open Go.RowKit Go.Lib

set_option maxRecDepth 100000 in
set_option maxHeartbeats 4000000 in
theorem cover_any {w0 w : World} {pg : Nat} {g : Addr} {b : Nat} {v : Value} {l : List Txt} {k : Nat} {fl : FloP} {n : Nat} {R : Own} (hM : Made w0 w (PageS pg g b v l k fl n (cntN l) R)) (hR : Lies R) (nm : ByteArray) (hnm : nm.size ≤ 16777216) (hl : l.length ≤ 1000000) (hn : n ≤ 1000000) :
    Calls Tryz.prog 34 #[.pointer (some ⟨pg, 0, none⟩), .string nm] w fun e w' => e = .returned (.tuple #[]) ∧ ∃ v', Made w0 w' (PageS pg g b v' (l ++ [nm.data.toList]) k fl (n + 1) (cntN (l ++ [nm.data.toList])) R) := by
  have H := Lib.hid hM
  have HR := Lib.hid hR
  obtain ⟨c0, c1, c2, c3⟩ := page_cells hM
  obtain ⟨a, cap, hv, hlc, hm, -⟩ := strO_is hM.turn
  subst hv
  obtain ⟨m, hml⟩ : ∃ m, l.length = m := ⟨_, rfl⟩
  have HML := Lib.hid hml
  rw [hml] at hlc hl c1
  unfold maxLen at hm
  have HT := Lib.hid ((cntO_lies b n (cntN l)).sep ((floO_lies g fl).sep hR))
  obtain ⟨c, hc⟩ : ∃ c, cntN l nm.data.toList = c := ⟨_, rfl⟩
  have hcm : c ≤ m := by rw [← hc, ← hml]; exact cnt_le _ _
  have HC := Lib.hid hc
  have HLS := Lib.hid ((cellO_lies pg (pageC g (.slice a l.length cap) b k)).sep HT.out)
  have M1 := Lib.hid (hM.turn.below ((strO_lies _ l).sep HLS.out) ((Below.refl w.heap.size w).alloc (Nat.le_refl _) (.cells #[.string nm] 9)))
  rw [hml] at M1 HLS
  clear hM hR hml hc c0 c2 c3
  go_enter Tryz.func34, Tryz.ntmps34
  go_wp2_with (first
    | (at_builtin; refine wpList_append_strO rfl _ _ rfl (.slice a m cap) l [nm.data.toList] _ HLS.out rfl M1.out ⟨w.heap.size, 0, none⟩ 1 1 rfl rfl ?c1 ?c2 ?_)
    | fail)
  case c1 =>
    intro j hj
    have : j = 0 := by simpa using hj
    subst this
    rw [show ((⟨w.heap.size, 0, none⟩ : Addr).add 0) = ⟨w.heap.size, 0, none⟩ from rfl, Lib.cell_of_heap (heap_alloc_new w _)]
    rfl
  case c2 => rw [HML.out]; simp; omega
  intro v8 w8 m8
  have M8 := Lib.hid m8.turn
  clear m8 M1
  obtain ⟨a8, cap8, hv8, -⟩ := strO_is M8.out.turn
  have HV8 := Lib.hid hv8
  have HS8 := Lib.hid ((strO_lies v8 (l ++ [nm.data.toList])).sep HT.out)
  clear hv8
  go_wp2_with (first
    | (refine wpList_store_open rfl _ _ rfl M8.out HS8.out rfl _ _ _ _ rfl HV8.out ?_; intro w9 m9; have M9 := Lib.hid m9; obtain ⟨z0, z1, z2, z3⟩ := page_cells m9; clear m9 z0 z1 z3)
    | (at_lookup; refine wpList_look_cnt rfl _ _ rfl M9.out.third rfl nm rfl ?_; rw [HC.out])
    | (at_mapUpdate; refine wpList_store_cnt rfl _ _ _ rfl M9.out.third ((cellO_lies pg _).sep ((strO_lies _ _).sep ((floO_lies g fl).sep HR.out))) (by omega) rfl nm hnm rfl _ rfl (c + 1) (by omega) (by first | rfl | omega) ?_; intro w10 m10; have M10 := Lib.hid m10; clear m10))
  refine bodyPost_end (results_none rfl _ _ _) rfl ?_
  refine ⟨rfl, v8, (M10.out.imp (Imp.left _ (cntO_alike fun t => ?_))).back⟩
  unfold updN
  rw [cnt_app, cnt_one]
  by_cases ht : t = nm.data.toList
  · rw [if_pos ht, if_pos ht.symm, ht, HC.out]
  · rw [if_neg ht, if_neg (fun e => ht e.symm)]; rfl

theorem updN_take (l : List Txt) (i j : Nat) (hi : i < l.length) (hj : j = i + 1) (c : Nat) (hc : cntN (l.take j) l[i] = c) (t : Txt) : updN (cntN (l.take j)) l[i] (c - 1) t = cntN (l.take i) t := by
  subst hj
  rw [List.take_succ_eq_append_getElem hi] at hc ⊢
  rw [cnt_app, cnt_one, if_pos rfl] at hc
  unfold updN
  rw [cnt_app, cnt_one]
  by_cases ht : t = l[i]
  · rw [if_pos ht, ← hc, ht]; omega
  · rw [if_neg ht, if_neg (fun e => ht e.symm)]; rfl
set_option maxRecDepth 100000 in
set_option maxHeartbeats 8000000 in
theorem leave_any {w0 w : World} {pg : Nat} {g : Addr} {b : Nat} {v : Value} {l : List Txt} {k : Nat} {fl : FloP} {n : Nat} {R : Own} (hM : Made w0 w (PageS pg g b v l k fl n (cntN l) R)) (hR : Lies R) (nm : ByteArray) (hl : l.length ≤ 1000000) (hn : n ≤ 1000000)
    (hsz : ∀ x ∈ l, x.length ≤ 16777216) (k0 : Nat) (hk0 : lastN l nm.data.toList = some k0) :
    Calls Tryz.prog 39 #[.pointer (some ⟨pg, 0, none⟩), .string nm] w fun e w' => e = .returned (.tuple #[]) ∧ ∃ v', Made w0 w' (PageS pg g b v' (l.take k0) k fl (n + (l.length - k0)) (cntN (l.take k0)) R) := by
  have HR := Lib.hid hR
  have HSZ := Lib.hid hsz
  have HK := Lib.hid (last_max _ _ _ hk0)
  obtain ⟨hkl, hke⟩ := last_some _ _ _ hk0
  have HKE := Lib.hid hke
  have M0 := Lib.hid (show Made w0 w (PageS pg g b v (l.take l.length) k fl (n + (l.length - l.length)) (cntN (l.take l.length)) R) by rw [List.take_length, Nat.sub_self, Nat.add_zero]; exact hM)
  obtain ⟨m, hml⟩ : ∃ m, l.length = m := ⟨_, rfl⟩
  have HML := Lib.hid hml
  rw [hml] at M0 hl hkl ⊢
  clear hM hR hsz hk0 hke hml
  go_enter Tryz.func39, Tryz.ntmps39
  go_wp2
  go_loopg [4, 5] m (fun gg _ _ wr => ∃ (j : Nat) (v' : Value), j ≤ gg ∧ k0 < j ∧ j ≤ m ∧ Hid (Made w0 wr (PageS pg g b v' (l.take j) k fl (n + (m - j)) (cntN (l.take j)) R)))
  case atStart => exact ⟨m, v, Nat.le_refl _, hkl, Nat.le_refl _, M0⟩
  case round =>
    obtain ⟨j, v', hjg, hkj, hjm, M⟩ := hrel
    clear M0
    obtain ⟨i, hij⟩ : ∃ i : Nat, j = i + 1 := ⟨j - 1, by omega⟩
    have hil : i < l.length := by rw [HML.out]; omega
    have hjl : (l.take j).length = j := by rw [List.length_take, HML.out]; omega
    obtain ⟨c0, c1, c2, c3⟩ := page_cells M.out
    obtain ⟨a, cap, hv, hlc, hm, hce⟩ := strO_is M.out.turn
    subst hv
    obtain ⟨x, rfl, xc⟩ := hce i (by rw [hjl]; omega)
    rw [hjl] at hlc c1 M
    rw [List.getElem_take] at xc
    have hls := HSZ.out _ (List.getElem_mem hil)
    have hcn : ∃ c, cntN (l.take j) l[i] = c ∧ 1 ≤ c ∧ c ≤ j := by
      refine ⟨_, rfl, ?_, by have := cnt_le l[i] (l.take j); rw [hjl] at this; exact this⟩
      rw [hij, List.take_succ_eq_append_getElem hil, cnt_app, cnt_one, if_pos rfl]; omega
    obtain ⟨c, hc, hc1, hcj⟩ := hcn
    have HUP := Lib.hid (updN_take l i j hil hij c hc)
    have HC := hc
    obtain ⟨S, hS⟩ : ∃ S : ByteArray, (⟨l[i].toArray⟩ : ByteArray) = S := ⟨_, rfl⟩
    have hS2 : S.data.toList = l[i] := by rw [← hS, List.toList_toArray]
    have hSs : S.size ≤ 16777216 := by rw [Lib.size_eq, hS2]; exact hls
    have HBQ := txt_beqB l[i] nm
    rw [hS] at HBQ xc
    rw [← hS2] at HC HUP
    have HC := Lib.hid HC
    have HT := Lib.hid ((strO_lies (.slice (some x) j cap) (l.take j)).sep ((cntO_lies b (n + (m - j)) (cntN (l.take j))).sep ((floO_lies g fl).sep HR.out)))
    have e1 : (j : Int) - 1 = (i : Int) := by omega
    have e2 : (c : Int) - 1 = ((c - 1 : Nat) : Int) := by omega
    unfold maxLen at hm
    have hic : i ≤ cap := by omega
    have HTI := Lib.hid (show (l.take j).take i = l.take i by rw [List.take_take, Nat.min_eq_left (by omega)])
    obtain ⟨B, hB⟩ : ∃ B, decide (l[i] = nm.data.toList) = B := ⟨_, rfl⟩
    rw [hB] at HBQ
    have HB := Lib.hid hB
    have HIM := Lib.hid (show i ≤ (l.take j).length by rw [hjl]; omega)
    clear hjl hce hls hc hS hS2 hB c0 c2 c3
    cases B
    · go_wp2_with (first
        | (refine wpList_store_open rfl _ _ rfl M.out HT.out rfl (some x) i cap (.slice (some x) i cap) (by first | rfl | go_num) rfl ?_; intro w9 m9; have M9 := Lib.hid (strO_cut m9.turn HIM.out).turn; rw [HTI.out] at M9; obtain ⟨z0, z1, z2, z3⟩ := page_cells M9.out; clear m9 z0 z1 z3)
        | (at_lookup; refine wpList_look_cnt rfl _ _ rfl M9.out.third rfl S rfl ?_; rw [HC.out])
        | (at_mapUpdate; refine wpList_store_cnt rfl _ _ _ rfl M9.out.third ((cellO_lies pg _).sep ((strO_lies _ _).sep ((floO_lies g fl).sep HR.out))) (by omega) rfl S hSs rfl _ rfl (c - 1) (by omega) (by first | rfl | omega) ?_; intro w10 m10; have M10 := Lib.hid (m10.imp (Imp.left _ (cntO_alike HUP.out))).back; clear m10))
      go_roundg i
      case measure => omega
      case rel =>
        have hki : k0 ≠ i := fun e => by
          subst e
          exact absurd HKE.out (of_decide_eq_false HB.out)
        refine ⟨i, .slice (some x) i cap, Nat.le_refl _, by omega, by omega, ?_⟩
        have e3 : n + (m - j) + 1 = n + (m - i) := by omega
        rw [e3] at M10
        exact M10
    · go_wp2_with (first
        | (refine wpList_store_open rfl _ _ rfl M.out HT.out rfl (some x) i cap (.slice (some x) i cap) (by first | rfl | go_num) rfl ?_; intro w9 m9; have M9 := Lib.hid (strO_cut m9.turn HIM.out).turn; rw [HTI.out] at M9; obtain ⟨z0, z1, z2, z3⟩ := page_cells M9.out; clear m9 z0 z1 z3)
        | (at_lookup; refine wpList_look_cnt rfl _ _ rfl M9.out.third rfl S rfl ?_; rw [HC.out])
        | (at_mapUpdate; refine wpList_store_cnt rfl _ _ _ rfl M9.out.third ((cellO_lies pg _).sep ((strO_lies _ _).sep ((floO_lies g fl).sep HR.out))) (by omega) rfl S hSs rfl _ rfl (c - 1) (by omega) (by first | rfl | omega) ?_; intro w10 m10; have M10 := Lib.hid (m10.imp (Imp.left _ (cntO_alike HUP.out))).back; clear m10))
      refine bodyPost_ret (results_none rfl _ _ _) rfl ?_
      have hki : i = k0 := by
        rcases Nat.lt_or_eq_of_le (show k0 ≤ i by omega) with h | h
        · exact absurd (of_decide_eq_true HB.out) (HK.out i hil h)
        · exact h.symm
      subst hki
      have e3 : n + (m - j) + 1 = n + (m - i) := by omega
      rw [e3] at M10
      exact ⟨rfl, _, M10.out⟩

/-! uncover -/
/-- texts of a row rewritten from a place on -/
theorem strO_rowD {w0 w : World} {ga m cap : Nat} {l : List Txt} {S : Own} (h : Made w0 w (Sep (StrO (.slice (some ⟨ga, 0, none⟩) m cap) l) S)) (hS : Lies S) (j : Nat) (hj : j ≤ l.length) :
    ∃ R, RowD w ga (strsV (l.take j)) (l.drop j) R ∧ RowD w ga [] [] (strsV l ++ R) ∧ ∀ w' E, RowD w' ga (strsV (l.take j)) E R → E.length = l.length - j → w.grownBy w' (some ga) → Made w0 w' (Sep (StrO (.slice (some ⟨ga, 0, none⟩) m cap) (l.take j ++ E)) S) := by
  obtain ⟨F, ⟨h1, hF⟩, -, hk⟩ := h.first
  rcases h1.2 with ⟨e, -⟩ | ⟨g', cap', cur, e, hb, hg, hn, hm, hs, ht⟩
  · cases e
  · injection e with e1 e2 e3
    injection e1 with e1
    injection e1 with e1 _ _
    subst e1; subst e2; subst e3
    rw [Nat.mul_one] at ht hs
    have hd : strsV l = strsV (l.take j) ++ strsV (l.drop j) := by rw [strsV_app, List.take_append_drop]
    have hcur : cur.toList = strsV l ++ cur.toList.drop l.length := by rw [← ht, List.take_append_drop]
    have hcl : cur.toList.length = cap := by rw [Array.length_toList, hs]
    refine ⟨cur.toList.drop l.length, ⟨?_⟩, ⟨?_⟩, fun w' E hr hE hgr => ?_⟩
    · rw [hg]
      congr 2
      apply Array.ext'
      rw [List.toList_toArray, ← hd]; exact hcur
    · rw [hg]
      congr 2
      apply Array.ext'
      rw [List.toList_toArray]; exact hcur
    · have hlen : (l.take j ++ E).length = l.length := by rw [List.length_append, List.length_take, hE]; omega
      refine hk w' (StrO _ (l.take j ++ E)) F hS ⟨⟨by rw [strsV_len, Nat.mul_one], .inr ⟨ga, cap, _, by rw [hlen], Nat.zero_le _, hr.heap, by rw [hlen]; exact hn, hm, ?_, ?_⟩⟩, hF⟩ (Moves.of_grown hgr ((hF ga).2 rfl))
      · have h5 := congrArg List.length hcur
        rw [List.length_append, strsV_len, hcl] at h5
        rw [List.size_toArray, List.length_append, List.length_append, strsV_len, strsV_len, List.length_take, hE, h5]; omega
      · rw [List.toList_toArray, Nat.mul_one, strsV_app, hlen, List.take_append_of_le_length (by rw [strsV_len, hlen]; exact Nat.le_refl _), List.take_of_length_le (by rw [strsV_len, hlen]; exact Nat.le_refl _)]
/-- how many, while heads are counted down -/
def cntJ (l : List Txt) (j : Nat) : Txt → Nat := fun t => if t = headL then cntN (l.take j) headL else cntN l t
theorem cntJ_head (l : List Txt) (j : Nat) : cntJ l j headL = cntN (l.take j) headL := if_pos rfl
theorem cntJ_all (l : List Txt) (t : Txt) : cntN l t = cntJ l l.length t := by
  unfold cntJ
  rw [List.take_length]
  by_cases h : t = headL
  · rw [if_pos h, h]
  · rw [if_neg h]
theorem cntJ_done (l : List Txt) (j : Nat) (h : cntN (l.take j) headL = 0) (t : Txt) : cntJ l j t = cntN (l.filter fun x => decide (x ≠ headL)) t := by
  unfold cntJ
  rw [cnt_filter, h]
theorem cntJ_same (l : List Txt) (i : Nat) (hi : i < l.length) (h : l[i] ≠ headL) (t : Txt) : cntJ l (i + 1) t = cntJ l i t := by
  unfold cntJ
  rw [List.take_succ_eq_append_getElem hi, cnt_app, cnt_one, if_neg h]; rfl
theorem cntJ_less (l : List Txt) (i : Nat) (hi : i < l.length) (h : l[i] = headL) (c : Nat) (hc : cntN (l.take (i + 1)) headL = c) (t : Txt) : updN (cntJ l (i + 1)) headL (c - 1) t = cntJ l i t := by
  rw [List.take_succ_eq_append_getElem hi, cnt_app, cnt_one, if_pos h] at hc
  unfold updN cntJ
  by_cases ht : t = headL
  · rw [if_pos ht, if_pos ht]; omega
  · rw [if_neg ht, if_neg ht, if_neg ht]
theorem filter_behind (l : List Txt) (j : Nat) (h : cntN (l.take j) headL = 0) : l.take j ++ (l.drop j).filter (fun q => !headB q) = l.filter fun x => decide (x ≠ headL) := by
  have e : (fun x : Txt => decide (x ≠ headL)) = fun q => !headB q := by
    funext x
    unfold headB
    by_cases hx : x = headL
    · rw [decide_eq_false (fun h => h hx), decide_eq_true hx]; rfl
    · rw [decide_eq_true hx, decide_eq_false hx]; rfl
  conv => rhs; rw [e, ← List.take_append_drop j l, List.filter_append]
  congr 1
  refine (List.filter_eq_self.2 fun q hq => ?_).symm
  have : q ≠ headL := fun e => (cnt_zero headL _).1 h (e ▸ hq)
  unfold headB
  rw [decide_eq_false this]; rfl
theorem headS : (⟨#[104, 101, 97, 100]⟩ : ByteArray).data.toList = headL := rfl
/-- what lies behind a place, struck and cut -/
theorem strO_struck {w0 w : World} {ga m cap j mm : Nat} {l E : List Txt} {S : Own} (h : Made w0 w (Sep (StrO (.slice (some ⟨ga, 0, none⟩) m cap) (l.take j ++ E)) S)) (hj : j ≤ l.length) (hE : E.length = l.length - j) (hm : mm ≤ l.length - j) (h2 : E.take mm = (l.drop j).filter fun q => !headB q) (h0 : cntN (l.take j) headL = 0) :
    Made w0 w (Sep (StrO (.slice (some ⟨ga, 0, none⟩) (j + mm) cap) (l.filter fun x => decide (x ≠ headL))) S) := by
  have h1 := strO_cut (m := j + mm) h (by rw [List.length_append, List.length_take]; omega)
  have e : (l.take j ++ E).take (j + mm) = l.filter fun x => decide (x ≠ headL) := by
    rw [← filter_behind l j h0, ← h2, List.take_append, List.take_of_length_le (by rw [List.length_take]; omega), List.length_take, Nat.min_eq_left hj, Nat.add_sub_cancel_left]
  rwa [e] at h1

set_option maxRecDepth 100000 in
set_option maxHeartbeats 16000000 in
theorem uncover_any {w0 w : World} {pg : Nat} {g : Addr} {b : Nat} {v : Value} {l : List Txt} {k : Nat} {fl : FloP} {n : Nat} {R : Own} (hM : Made w0 w (PageS pg g b v l k fl n (cntN l) R)) (hR : Lies R) (hl : l.length ≤ 1000000) (hn : n ≤ 1000000) :
    Calls Tryz.prog 32 #[.pointer (some ⟨pg, 0, none⟩)] w fun e w' => e = .returned (.tuple #[]) ∧ ∃ v' n', n' ≤ n + cntN l headL ∧ Made w0 w' (PageS pg g b v' (l.filter fun x => decide (x ≠ headL)) k fl n' (cntN (l.filter fun x => decide (x ≠ headL))) R) := by
  have HR := Lib.hid hR
  have M0 := Lib.hid (show Made w0 w (PageS pg g b v l k fl n (cntJ l l.length) R) from (hM.third.imp (Imp.left _ (cntO_alike (cntJ_all l)))).back)
  obtain ⟨c0, c1, c2, c3⟩ := page_cells hM
  obtain ⟨a, cap, hv, hlc, hm, hce⟩ := strO_is hM.turn
  subst hv
  have HCE := Lib.hid hce
  have HCT := Lib.hid (show ∀ j, cntN (l.take j) headL ≤ cntN l headL from fun j => by
    conv => rhs; rw [← List.take_append_drop j l, cnt_app]
    omega)
  have HSN := Lib.hid (show (Value.slice a l.length cap = .slice none 0 0 ∧ l.length = 0) ∨ ∃ ga, a = some ⟨ga, 0, none⟩ from by
    rcases (strO_row hM.turn).2 with ⟨e, e0⟩ | ⟨ga, cap', cur, e, -⟩
    · exact .inl ⟨e, e0⟩
    · injection e with e1 e2 e3
      exact .inr ⟨ga, e1⟩)
  obtain ⟨LF, hLF⟩ : ∃ LF, (l.filter fun x => decide (x ≠ headL)) = LF := ⟨_, rfl⟩
  have HLF := Lib.hid hLF
  rw [hLF]
  clear hLF
  obtain ⟨m, hml⟩ : ∃ m, l.length = m := ⟨_, rfl⟩
  have HML := Lib.hid hml
  obtain ⟨C, hC⟩ : ∃ C, cntN l headL = C := ⟨_, rfl⟩
  have hCm : C ≤ m := by rw [← hC, ← hml]; exact cnt_le _ _
  have HCC := Lib.hid hC
  rw [hml] at hlc hl c1 M0 HSN
  rw [hC] at HCT ⊢
  unfold maxLen at hm
  have HCJ := Lib.hid (show cntN (l.take m) headL = C by rw [← hml, List.take_length]; exact hC)
  clear hM hR hml hC hce c0 c2 c3
  go_enter Tryz.func32, Tryz.ntmps32
  go_wp2
  clear c1
  go_loopw [2] (fun v2 wr => ∃ (j q : Nat), v2 = .int .i64 (j : Int) ∧ j ≤ m ∧ Hid (q + cntN (l.take j) headL ≤ n + C) ∧ Hid (Made w0 wr (PageS pg g b (.slice a m cap) l k fl q (cntJ l j) R))) (fun v _ => (intOf v).toNat)
  case atStart => exact ⟨m, n, rfl, Nat.le_refl _, Lib.hid (by rw [HCJ.out]; exact Nat.le_refl _), M0⟩
  case round =>
    obtain ⟨j, q, rfl, hj, HQ, M⟩ := hrel
    clear M0 HCJ
    obtain ⟨c0, c1, c2, c3⟩ := page_cells M.out
    obtain ⟨c, hc⟩ : ∃ c, cntN (l.take j) headL = c := ⟨_, rfl⟩
    have hqc : q + c ≤ n + C := by rw [← hc]; exact HQ.out
    have hcC : c ≤ C := by rw [← hc]; exact HCT.out j
    have HC := Lib.hid hc
    have HC2 := Lib.hid (show cntJ l j (⟨#[104, 101, 97, 100]⟩ : ByteArray).data.toList = c by rw [headS, cntJ_head]; exact hc)
    by_cases h0 : c = 0
    · subst h0
      have HIMP := Lib.hid (fun v => show Imp (PageS pg g b v LF k fl q (cntJ l j) R) (PageS pg g b v LF k fl q (cntN LF) R) from
        Imp.right _ (Imp.right _ (Imp.left _ (cntO_alike (by rw [← HLF.out]; exact cntJ_done l j HC.out)))))
      have HT := Lib.hid ((cntO_lies b q (cntJ l j)).sep ((floO_lies g fl).sep HR.out))
      have hq : q ≤ n + C := by omega
      rcases HSN.out with ⟨e, e0⟩ | ⟨ga, rfl⟩
      · injection e with e1 e2 e3
        subst e1; subst e2; subst e3
        obtain rfl : j = 0 := by omega
        have HL0 := Lib.hid (List.eq_nil_of_length_eq_zero HML.out)
        have HD := fun w => Lib.hid (deleteHead_none w (.func (.func 58) #[] #[]))
        clear c0 c3 hqc hc
        go_wp2_with (first
          | (at_lookup; refine wpList_look_cnt rfl _ _ rfl M.out.third rfl ⟨#[104, 101, 97, 100]⟩ rfl ?_; rw [HC2.out])
          | (go_at_call 57; refine (HD _).out.mono ?_; rintro e w5 ⟨rfl, hw5⟩; obtain rfl := hw5.symm)
          | (refine wpList_store_open rfl _ _ rfl M.out ((strO_lies _ l).sep HT.out) rfl none 0 0 (.slice none 0 0) (by first | rfl | go_num) rfl ?_; intro w9 m9; have M9 := Lib.hid m9; clear m9))
        refine bodyPost_end (results_none rfl _ _ _) (by rfl) ?_
        refine ⟨rfl, .slice none 0 0, q, hq, ?_⟩
        refine Made.imp ?_ (HIMP.out _)
        have h9 := M9.out
        have hlf : LF = [] := by rw [← HLF.out, HL0.out]; rfl
        rw [hlf]
        rw [HL0.out] at h9
        rw [HL0.out]
        exact h9
      · obtain ⟨Rr, hr1, hr2, hr3⟩ := strO_rowD M.out.turn ((cellO_lies pg _).sep HT.out) j (by rw [HML.out]; exact hj)
        have HR1 := Lib.hid hr1
        have HR2 := Lib.hid hr2
        have HR3 := Lib.hid hr3
        have hjm : j ≤ cap := by omega
        have hdl : (l.drop j).length = m - j := by rw [List.length_drop, HML.out]
        have hjl : (strsV (l.take j)).length = j := by rw [strsV_len, List.length_take, HML.out]; omega
        have HDL := Lib.hid hdl
        clear c0 c3 hqc hc hr1 hr2 hr3 hdl
        by_cases he0 : cap = j
        · subst he0
          obtain rfl : m = cap := by omega
          have HD := fun w h => Lib.hid (deleteHead_any ga 0 0 0 [] [] (strsV l ++ Rr) w h rfl rfl (Nat.le_refl _) (by omega))
          clear hjl hjm
          go_wp2_with (first
            | (at_lookup; refine wpList_look_cnt rfl _ _ rfl M.out.third rfl ⟨#[104, 101, 97, 100]⟩ rfl ?_; rw [HC2.out])
            | fail)
          refine (HD _ HR2.out).out.mono ?_
          rintro e5 w5 ⟨E, mm, rfl, hr, hmm, hE, hEt, hgr⟩
          obtain rfl : mm = 0 := by omega
          obtain rfl : E = [] := List.eq_nil_of_length_eq_zero hE
          have htk : l.take m = l := List.take_of_length_le (by rw [HML.out]; exact Nat.le_refl _)
          have hdr : l.drop m = [] := List.drop_eq_nil_of_le (by rw [HML.out]; exact Nat.le_refl _)
          have hr5 : RowD w5 ga (strsV (l.take m)) [] Rr := ⟨by rw [hr.heap, htk]; simp [strsV]⟩
          have M5 := Lib.hid (strO_struck (mm := 0) (HR3.out w5 [] hr5 (by rw [HML.out, Nat.sub_self]; rfl) hgr) (by rw [HML.out]; exact hj) (by rw [HML.out, Nat.sub_self]; rfl) (Nat.zero_le _) (by rw [hdr]; rfl) HC.out).turn
          rw [HLF.out, Nat.add_zero] at M5
          obtain ⟨c0, c1, c2, c3⟩ := page_cells M5.out
          clear c0 c2 c3 hr hE hEt hgr hr5 htk hdr
          go_wp2_with (refine wpList_store_open rfl _ _ rfl M5.out ((strO_lies _ LF).sep HT.out) rfl (some ⟨ga, 0, none⟩) m m (.slice (some ⟨ga, 0, none⟩) m m) (by first | rfl | go_num) rfl ?_; intro w9 m9; have M9 := Lib.hid m9; clear m9)
          refine bodyPost_end (results_none rfl _ _ _) (by rfl) ?_
          exact ⟨rfl, _, q, hq, M9.out.imp (HIMP.out _)⟩
        · have HD := fun w h => Lib.hid (deleteHead_any ga j (cap - j) (m - j) (strsV (l.take j)) (l.drop j) Rr w h hjl HDL.out (by omega) (by omega))
          clear hjl
          go_wp2_with (first
            | (at_lookup; refine wpList_look_cnt rfl _ _ rfl M.out.third rfl ⟨#[104, 101, 97, 100]⟩ rfl ?_; rw [HC2.out])
            | fail)
          refine (HD _ HR1.out).out.mono ?_
          rintro e5 w5 ⟨E, mm, rfl, hr, hmm, hE, hEt, hgr⟩
          have M5 := Lib.hid (strO_struck (HR3.out w5 E hr (by rw [hE, HML.out]) hgr) (by rw [HML.out]; exact hj) (by rw [hE, HML.out]) (by rw [HML.out]; exact hmm) hEt HC.out).turn
          rw [HLF.out] at M5
          obtain ⟨c0, c1, c2, c3⟩ := page_cells M5.out
          clear c0 c2 c3 hr hE hEt hgr
          have hjc : j + mm ≤ cap := by omega
          go_wp2_with (refine wpList_store_open rfl _ _ rfl M5.out ((strO_lies _ LF).sep HT.out) rfl (some ⟨ga, 0, none⟩) (j + mm) cap (.slice (some ⟨ga, 0, none⟩) (j + mm) cap) (by first | rfl | go_num) rfl ?_; intro w9 m9; have M9 := Lib.hid m9; clear m9)
          refine bodyPost_end (results_none rfl _ _ _) (by rfl) ?_
          exact ⟨rfl, _, q, hq, M9.out.imp (HIMP.out _)⟩
    · have hj0 : j ≠ 0 := fun e => h0 (by rw [← hc, e]; rfl)
      have hd : decide ((0 : Int) < (c : Int)) = true := decide_eq_true (by omega)
      have hd2 : decide (0 < c) = true := decide_eq_true (by omega)
      obtain ⟨i, hij⟩ : ∃ i : Nat, j = i + 1 := ⟨j - 1, by omega⟩
      have hil : i < l.length := by rw [HML.out]; omega
      obtain ⟨a', cap', hv', -, -, hce⟩ := strO_is M.out.turn
      injection hv' with ea em ec
      subst ea; subst ec
      obtain ⟨x, rfl, xc⟩ := hce i hil
      have hbq := txt_beqB l[i] ⟨#[104, 101, 97, 100]⟩
      rw [headS, show (⟨#[104, 101, 97, 100]⟩ : ByteArray).toList = [104, 101, 97, 100] by rw [ByteArray.toList_eq]] at hbq
      obtain ⟨S, hS⟩ : ∃ S : ByteArray, (⟨l[i].toArray⟩ : ByteArray) = S := ⟨_, rfl⟩
      rw [hS] at hbq xc
      have hbq2 := hbq
      have e1 : (j : Int) - 1 = (i : Int) := by omega
      have e2 : (c : Int) - 1 = ((c - 1 : Nat) : Int) := by omega
      have hct : cntN (l.take (i + 1)) headL = c := by rw [← hij]; exact hc
      have hq0 : q ≤ n + C := by omega
      clear hce hS c0 c3 hbq hqc hc em
      by_cases hx : l[i] = headL
      · rw [decide_eq_true hx] at hbq2
        have HUP := Lib.hid (cntJ_less l i hil hx c hct)
        rw [← hij] at HUP
        have HQ2 : Hid (q + 1 + cntN (l.take i) headL ≤ n + C) := Lib.hid (by
          have := HQ.out
          rw [hij, List.take_succ_eq_append_getElem hil, cnt_app, cnt_one, if_pos hx] at this
          omega)
        clear hx hct
        go_wp2_with (first
          | (at_lookup; refine wpList_look_cnt rfl _ _ rfl M.out.third rfl ⟨#[104, 101, 97, 100]⟩ rfl ?_; rw [HC2.out])
          | (at_mapUpdate; refine wpList_store_cnt rfl _ _ _ rfl M.out.third ((cellO_lies pg _).sep ((strO_lies _ _).sep ((floO_lies g fl).sep HR.out))) (by omega) rfl ⟨#[104, 101, 97, 100]⟩ (by decide) rfl _ rfl (c - 1) (by omega) (by first | rfl | omega) ?_; intro w10 m10; have M10 := Lib.hid (m10.imp (Imp.left _ (cntO_alike HUP.out))).back; clear m10))
        go_roundw
        case rel => exact ⟨i, by first | rfl | trivial | go_num, by omega, q + 1, HQ2, M10⟩
        case measure => simp [intOf]; omega
      · rw [decide_eq_false hx] at hbq2
        have HUP := Lib.hid (cntJ_same l i hil hx)
        rw [← hij] at HUP
        have M10 := Lib.hid (M.out.third.imp (Imp.left _ (cntO_alike HUP.out))).back
        have HQ2 : Hid (q + cntN (l.take i) headL ≤ n + C) := Lib.hid (by
          have := HQ.out
          rw [hij, List.take_succ_eq_append_getElem hil, cnt_app, cnt_one, if_neg hx] at this
          omega)
        clear hx hct
        go_wp2_with (at_lookup; refine wpList_look_cnt rfl _ _ rfl M.out.third rfl ⟨#[104, 101, 97, 100]⟩ rfl ?_; rw [HC2.out])
        go_roundw
        case rel => exact ⟨i, q, by first | rfl | trivial | go_num, by omega, HQ2, M10⟩
        case measure => simp [intOf]; omega
end Go.Proofs.YtbcmfcddkegcoaaGreatDoor

/-! What the program's closures of layer 19 do to its page: a start tag, an end tag, a text. (Written by wip/tools/gen_rendeed.py.) -/
namespace Go.Proofs.YtbcmfcddkegcoaaGreatDoor
open Go.RowKit Go.Lib

theorem filter_cnt (nm : Txt) : ∀ l : List Txt, (l.filter fun x => decide (x ≠ nm)).length + cntN l nm = l.length
  | [] => rfl
  | x :: l => by
    have ih := filter_cnt nm l
    rw [List.filter_cons]
    show _ + ((if x = nm then 1 else 0) + cntN l nm) = _
    rw [List.length_cons]
    by_cases hx : x = nm
    · rw [if_neg (by simpa using hx), if_pos hx]; omega
    · rw [if_pos (by simpa using hx), if_neg hx, List.length_cons]; omega
theorem hid_short (nm : Txt) (h : hidN nm = true) : nm.length ≤ 16777216 := by
  have h1 : ∀ x ∈ hidL, x.length ≤ 16777216 := by decide +kernel
  exact h1 nm (of_decide_eq_true h)
/-- the captured page -/
def boxC (pg : Nat) : Obj := .cells #[.pointer (some ⟨pg, 0, none⟩)] 39 (0, 0)
/-- the piece itself -/
def tokC (K : Int) (nm X : ByteArray) (ad : Option Addr) (ln cp : Nat) (sf : Bool) : Obj := .cells #[.int .i64 K, .string nm, .string X, .slice ad ln cp, .bool sf] 31 (0, 0)
theorem Imp.sink (T : Own) (pg : Nat) (g : Addr) (b : Nat) (v : Value) (l : List Txt) (k : Nat) (fl : FloP) (n : Nat) (f : Txt → Nat) (R : Own) : Imp (Sep T (PageS pg g b v l k fl n f R)) (PageS pg g b v l k fl n f (Sep T R)) :=
  fun w F h => Imp.right _ (Imp.right _ (Imp.right _ (Imp.turn _ _ _))) w F (Imp.right _ (Imp.right _ (Imp.turn _ _ _)) w F (Imp.right _ (Imp.turn _ _ _) w F (Imp.turn _ _ _ w F h)))
theorem Imp.rise (T : Own) (pg : Nat) (g : Addr) (b : Nat) (v : Value) (l : List Txt) (k : Nat) (fl : FloP) (n : Nat) (f : Txt → Nat) (R : Own) : Imp (PageS pg g b v l k fl n f (Sep T R)) (Sep T (PageS pg g b v l k fl n f R)) :=
  fun w F h => Imp.turn _ _ _ w F (Imp.right _ (Imp.turn _ _ _) w F (Imp.right _ (Imp.right _ (Imp.turn _ _ _)) w F (Imp.right _ (Imp.right _ (Imp.right _ (Imp.turn _ _ _))) w F h)))
theorem deed_facts {w0 w : World} {pg : Nat} {g : Addr} {b : Nat} {v : Value} {l : List Txt} {k : Nat} {fl : FloP} {n : Nat} {f : Txt → Nat} {R : Own} {tb bx : Nat} {K : Int} {nm X : ByteArray} {ad : Option Addr} {ln cp : Nat} {sf : Bool}
    (h : Made w0 w (PageS pg g b v l k fl n f (Sep (CellO tb (tokC K nm X ad ln cp sf)) (Sep (CellO bx (boxC pg)) R)))) :
    w.cell? ⟨tb, 1, none⟩ = some (.string nm) ∧ w.cell? ⟨tb, 2, none⟩ = some (.string X) ∧ w.cell? ⟨bx, 0, none⟩ = some (.pointer (some ⟨pg, 0, none⟩)) := by
  have h1 := cellO_is h.rest.rest.rest.rest
  have h2 := cellO_is h.rest.rest.rest.rest.rest
  unfold tokC at h1
  unfold boxC at h2
  exact ⟨by rw [Lib.cell_of_heap h1]; rfl, by rw [Lib.cell_of_heap h1]; rfl, by rw [Lib.cell_of_heap h2]; rfl⟩
/-- what a closure leaves -/
def DeedP (w0 : World) (pg : Nat) (g : Addr) (b : Nat) (r : RenP) (m : Nat) (R : Own) (e : Ending) (w' : World) : Prop :=
  e = .returned (.tuple #[]) ∧ ∃ v' n', n' + r.opn.length ≤ m ∧ Made w0 w' (PageS pg g b v' r.opn r.kept r.flow n' (cntN r.opn) R)
theorem deed_done {w0 w' : World} {pg : Nat} {g : Addr} {b : Nat} {r0 r r' : RenP} {t : TokP} {m : Nat} {T R : Own} {v' : Value} {n' : Nat} (h : renT r0 t = r) (he : renT r0 t = r') (hm : n' + r'.opn.length ≤ m)
    (hM : Made w0 w' (PageS pg g b v' r'.opn r'.kept r'.flow n' (cntN r'.opn) (Sep T R))) : DeedP w0 pg g b r m R (.returned (.tuple #[])) w' := by
  rw [← h, he]
  exact ⟨rfl, v', n', hm, (hM.imp (Imp.rise _ _ _ _ _ _ _ _ _ _ _)).rest⟩

set_option maxRecDepth 100000 in
set_option maxHeartbeats 16000000 in
theorem startD_any {w0 w : World} {pg : Nat} {g : Addr} {b : Nat} {v : Value} {l : List Txt} {k : Nat} {fl : FloP} {n : Nat} {R : Own} {bx : Nat} (hM : Made w0 w (PageS pg g b v l k fl n (cntN l) (Sep (CellO bx (boxC pg)) R))) (hR : Lies R) (t : TokP) (hkind : t.kind = 1) (ad : Option Addr) (ln cp : Nat)
    (hs : fl.size + t.text.length ≤ 1073741000) (hk : k ≤ 100000) (hl : l.length ≤ 100000) (hn : n ≤ 100000) :
    Calls Tryz.prog 31 #[tokA t ad ln cp, .pointer (some ⟨bx, 0, none⟩)] w (DeedP w0 pg g b (renT ⟨l, k, fl⟩ t) (n + l.length + 2) (Sep (CellO bx (boxC pg)) R)) := by
  obtain ⟨RR, hRR⟩ : ∃ RR, renT ⟨l, k, fl⟩ t = RR := ⟨_, rfl⟩
  have HRR := Lib.hid hRR
  rw [hRR]
  unfold tokA
  have HK := Lib.hid hkind
  rw [hkind]
  obtain ⟨nm, hnmE⟩ : ∃ nm : ByteArray, (⟨t.name.toArray⟩ : ByteArray) = nm := ⟨_, rfl⟩
  have hnm2 : nm.data.toList = t.name := by rw [← hnmE, List.toList_toArray]
  obtain ⟨X, hX⟩ : ∃ X : ByteArray, (⟨t.text.toArray⟩ : ByteArray) = X := ⟨_, rfl⟩
  have hX2 : X.data.toList = t.text := by rw [← hX, List.toList_toArray]
  have hXs : X.size = t.text.length := by rw [Lib.size_eq, hX2]
  rw [← hXs] at hs
  obtain ⟨sf, hsf⟩ : ∃ b, t.self = b := ⟨_, rfl⟩
  rw [hnmE, hX, hsf]
  have HNM2 := Lib.hid hnm2
  have HX2 := Lib.hid hX2
  obtain ⟨tb, htb⟩ : ∃ tb, w.heap.size = tb := ⟨_, rfl⟩
  have HRL0 := Lib.hid ((cellO_lies bx (boxC pg)).sep hR)
  have HRL := Lib.hid ((cellO_lies tb (tokC 1 nm X ad ln cp sf)).sep HRL0.out)
  have hm1 := (cellO_made hM (page_lies pg g b v l k fl n (cntN l) HRL0.out) (tokC 1 nm X ad ln cp sf)).imp (Imp.sink _ _ _ _ _ _ _ _ _ _ _)
  rw [htb] at hm1
  obtain ⟨w1, hw1⟩ : ∃ w1, w.alloc (tokC 1 nm X ad ln cp sf) = w1 := ⟨_, rfl⟩
  rw [hw1] at hm1
  have M1 := Lib.hid hm1
  have HW1 := Lib.hid (show w.alloc (.cells #[.int .i64 1, .string nm, .string X, .slice ad ln cp, .bool sf] 31) = w1 from hw1)
  have y0 : (w.alloc (.cells #[.int .i64 1, .string nm, .string X, .slice ad ln cp, .bool sf] 31)).cell? ⟨bx, 0, none⟩ = some (.pointer (some ⟨pg, 0, none⟩)) := by
    rw [HW1.out]
    exact (deed_facts hm1).2.2
  have y00 : w.cell? ⟨bx, 0, none⟩ = some (.pointer (some ⟨pg, 0, none⟩)) := by
    have h2 := cellO_is hM.rest.rest.rest.rest
    unfold boxC at h2
    rw [Lib.cell_of_heap h2]; rfl
  have y000 : bx ≠ w.heap.size := by
    have h2 := cellO_is hM.rest.rest.rest.rest
    have := (Array.getElem?_eq_some_iff.1 h2).1
    omega
  have HTB := Lib.hid htb
  have CH := fun w => Lib.hid (kHides_any nm w (knd_here w))
  rw [hnm2] at CH
  obtain ⟨hh, hhh⟩ : ∃ hh, hidN t.name = hh := ⟨_, rfl⟩
  rw [hhh] at CH
  have HHH := Lib.hid hhh
  have hbq : (nm.toList == [98, 111, 100, 121]) = decide (t.name = bodyL) := by
    rw [ByteArray.toList_eq, HNM2.out]
    exact Bool.eq_iff_iff.2 (by rw [beq_iff_eq, decide_eq_true_iff]; exact Iff.rfl)
  have hs : fl.size ≤ 1073741000 := by omega
  have hk : k ≤ 1000000 := by omega
  by_cases hbody : t.name = bodyL
  · rw [decide_eq_true hbody] at hbq
    have hh0 : hh = false := by rw [← HHH.out, hbody]; exact (show hidN bodyL = false by decide +kernel)
    subst hh0
    obtain ⟨LF, hLF⟩ : ∃ LF, (l.filter fun x => decide (x ≠ headL)) = LF := ⟨_, rfl⟩
    have HOP := Lib.hid (show openS ⟨l, k, fl⟩ t.name = LF by unfold openS; rw [if_pos hbody]; exact hLF)
    have hfc := filter_cnt headL l
    have HUN := Lib.hid (uncover_any M1.out HRL.out (by omega) (by omega))
    rw [hLF] at hfc HUN
    clear hbody hhh hLF hnmE hnm2 hX hX2 hsf hw1 hm1 hM hR hRR hkind htb
    go_enter Tryz.func31, Tryz.ntmps31
    go_wp2_with (fail)
    rw [HW1.out]
    refine HUN.out.mono ?_
    rintro e w2 ⟨rfl, v2, n2, hn2, m2⟩
    have M2 := Lib.hid m2
    clear m2 y0
    obtain ⟨y1, y2, y3⟩ := deed_facts M2.out
    try rw [HTB.out]
    go_wp2_with (fail)
    refine ((CH _).out).mono ?_
    rintro e w3 ⟨rfl, b3⟩
    have M3 := Lib.hid (M2.out.below (page_lies pg g b _ LF k fl n2 (cntN LF) HRL.out) b3)
    clear b3
    obtain ⟨y1, y2, y3⟩ := deed_facts M3.out
    obtain ⟨B, hB⟩ : ∃ B, decide (LF ≠ []) = B := ⟨_, rfl⟩
    have HHI := Lib.hid (hidden_any M3.out)
    rw [hB] at HHI
    have HB := Lib.hid hB
    clear hB
    go_wp2_with (fail)
    refine HHI.out.mono ?_
    rintro e w4 ⟨rfl, hw4⟩
    obtain rfl := hw4.symm
    cases B
    · have hl0 : LF = [] := Classical.byContradiction fun h => of_decide_eq_false HB.out h
      go_wp2_with (fail)
      refine (part_any M3.out HRL.out nm hs).mono ?_
      rintro e w5 ⟨rfl, m5⟩
      have M5 := Lib.hid m5
      clear m5
      rw [HNM2.out] at M5
      obtain ⟨y1, y2, y3⟩ := deed_facts M5.out
      go_wp2_with (fail)
      refine (keepMore_any M5.out HRL.out nm hk).mono ?_
      rintro e w6 ⟨rfl, m6⟩
      have M6 := Lib.hid m6
      clear m6
      rw [HNM2.out] at M6
      go_wp2
      refine bodyPost_end (results_none rfl _ _ _) (by rfl) ?_
      exact deed_done (n' := n2) (r' := ⟨[], k + oneIf (keeN t.name), linesF t.name fl⟩) HRR.out (by rw [renT_start _ t HK.out, HHH.out, if_neg Bool.false_ne_true, HOP.out, if_pos hl0]) (by simp only [List.length_nil]; omega) (by have h6 := M6.out; rw [hl0] at h6; exact h6)
    · have hl0 : ¬ LF = [] := of_decide_eq_true HB.out
      go_wp2
      refine bodyPost_end (results_none rfl _ _ _) (by rfl) ?_
      exact deed_done (n' := n2) HRR.out (by rw [renT_start _ t HK.out, HHH.out, if_neg Bool.false_ne_true, HOP.out, if_neg hl0]) (by simp only; omega) M3.out
  · rw [decide_eq_false hbody] at hbq
    have HOP := Lib.hid (show openS ⟨l, k, fl⟩ t.name = l by unfold openS; rw [if_neg hbody])
    clear hbody hhh hnmE hnm2 hX hX2 hsf hw1 hm1 hM hR hRR hkind htb
    go_enter Tryz.func31, Tryz.ntmps31
    go_wp2_with (fail)
    rw [HW1.out]
    try rw [HTB.out]
    refine ((CH _).out).mono ?_
    rintro e w3 ⟨rfl, b3⟩
    have M3 := Lib.hid (M1.out.below (page_lies pg g b _ l k fl n (cntN l) HRL.out) b3)
    clear b3
    obtain ⟨y1, y2, y3⟩ := deed_facts M3.out
    cases hh
    · obtain ⟨B, hB⟩ : ∃ B, decide (l ≠ []) = B := ⟨_, rfl⟩
      have HHI := Lib.hid (hidden_any M3.out)
      rw [hB] at HHI
      have HB := Lib.hid hB
      clear hB
      go_wp2_with (fail)
      refine HHI.out.mono ?_
      rintro e w4 ⟨rfl, hw4⟩
      obtain rfl := hw4.symm
      cases B
      · have hl0 : l = [] := Classical.byContradiction fun h => of_decide_eq_false HB.out h
        go_wp2_with (fail)
        refine (part_any M3.out HRL.out nm hs).mono ?_
        rintro e w5 ⟨rfl, m5⟩
        have M5 := Lib.hid m5
        clear m5
        rw [HNM2.out] at M5
        obtain ⟨y1, y2, y3⟩ := deed_facts M5.out
        go_wp2_with (fail)
        refine (keepMore_any M5.out HRL.out nm hk).mono ?_
        rintro e w6 ⟨rfl, m6⟩
        have M6 := Lib.hid m6
        clear m6
        rw [HNM2.out] at M6
        go_wp2
        refine bodyPost_end (results_none rfl _ _ _) (by rfl) ?_
        exact deed_done (n' := n) (r' := ⟨[], k + oneIf (keeN t.name), linesF t.name fl⟩) HRR.out (by rw [renT_start _ t HK.out, HHH.out, if_neg Bool.false_ne_true, HOP.out, if_pos hl0]) (by simp only [List.length_nil]; omega) (by have h6 := M6.out; rw [hl0] at h6; exact h6)
      · have hl0 : ¬ l = [] := of_decide_eq_true HB.out
        go_wp2
        refine bodyPost_end (results_none rfl _ _ _) (by rfl) ?_
        exact deed_done (n' := n) HRR.out (by rw [renT_start _ t HK.out, HHH.out, if_neg Bool.false_ne_true, HOP.out, if_neg hl0]) (by simp only; omega) M3.out
    · have hnm : nm.size ≤ 16777216 := by
        rw [Lib.size_eq, HNM2.out]; exact hid_short _ HHH.out
      go_wp2_with (fail)
      refine (cover_any M3.out HRL.out nm hnm (by omega) (by omega)).mono ?_
      rintro e w4 ⟨rfl, v4, m4⟩
      have M4 := Lib.hid m4
      clear m4
      rw [HNM2.out] at M4
      go_wp2
      refine bodyPost_end (results_none rfl _ _ _) (by rfl) ?_
      exact deed_done (n' := n + 1) HRR.out (by rw [renT_start _ t HK.out, HHH.out, if_pos rfl, HOP.out]) (by simp only [List.length_append, List.length_cons, List.length_nil]; omega) M4.out

set_option maxRecDepth 100000 in
set_option maxHeartbeats 16000000 in
theorem endD_any {w0 w : World} {pg : Nat} {g : Addr} {b : Nat} {v : Value} {l : List Txt} {k : Nat} {fl : FloP} {n : Nat} {R : Own} {bx : Nat} (hM : Made w0 w (PageS pg g b v l k fl n (cntN l) (Sep (CellO bx (boxC pg)) R))) (hR : Lies R) (t : TokP) (hkind : t.kind = 2) (ad : Option Addr) (ln cp : Nat)
    (hs : fl.size + t.text.length ≤ 1073741000) (hk : k ≤ 100000) (hl : l.length ≤ 100000) (hn : n ≤ 100000) (hsz : ∀ x ∈ l, x.length ≤ 16777216) :
    Calls Tryz.prog 38 #[tokA t ad ln cp, .pointer (some ⟨bx, 0, none⟩)] w (DeedP w0 pg g b (renT ⟨l, k, fl⟩ t) (n + l.length + 2) (Sep (CellO bx (boxC pg)) R)) := by
  obtain ⟨RR, hRR⟩ : ∃ RR, renT ⟨l, k, fl⟩ t = RR := ⟨_, rfl⟩
  have HRR := Lib.hid hRR
  rw [hRR]
  unfold tokA
  have HK := Lib.hid hkind
  rw [hkind]
  obtain ⟨nm, hnmE⟩ : ∃ nm : ByteArray, (⟨t.name.toArray⟩ : ByteArray) = nm := ⟨_, rfl⟩
  have hnm2 : nm.data.toList = t.name := by rw [← hnmE, List.toList_toArray]
  obtain ⟨X, hX⟩ : ∃ X : ByteArray, (⟨t.text.toArray⟩ : ByteArray) = X := ⟨_, rfl⟩
  have hX2 : X.data.toList = t.text := by rw [← hX, List.toList_toArray]
  have hXs : X.size = t.text.length := by rw [Lib.size_eq, hX2]
  rw [← hXs] at hs
  obtain ⟨sf, hsf⟩ : ∃ b, t.self = b := ⟨_, rfl⟩
  rw [hnmE, hX, hsf]
  have HNM2 := Lib.hid hnm2
  have HX2 := Lib.hid hX2
  obtain ⟨tb, htb⟩ : ∃ tb, w.heap.size = tb := ⟨_, rfl⟩
  have HRL0 := Lib.hid ((cellO_lies bx (boxC pg)).sep hR)
  have HRL := Lib.hid ((cellO_lies tb (tokC 2 nm X ad ln cp sf)).sep HRL0.out)
  have hm1 := (cellO_made hM (page_lies pg g b v l k fl n (cntN l) HRL0.out) (tokC 2 nm X ad ln cp sf)).imp (Imp.sink _ _ _ _ _ _ _ _ _ _ _)
  rw [htb] at hm1
  obtain ⟨w1, hw1⟩ : ∃ w1, w.alloc (tokC 2 nm X ad ln cp sf) = w1 := ⟨_, rfl⟩
  rw [hw1] at hm1
  have M1 := Lib.hid hm1
  have HW1 := Lib.hid (show w.alloc (.cells #[.int .i64 2, .string nm, .string X, .slice ad ln cp, .bool sf] 31) = w1 from hw1)
  have y0 : (w.alloc (.cells #[.int .i64 2, .string nm, .string X, .slice ad ln cp, .bool sf] 31)).cell? ⟨bx, 0, none⟩ = some (.pointer (some ⟨pg, 0, none⟩)) := by
    rw [HW1.out]
    exact (deed_facts hm1).2.2
  have y00 : w.cell? ⟨bx, 0, none⟩ = some (.pointer (some ⟨pg, 0, none⟩)) := by
    have h2 := cellO_is hM.rest.rest.rest.rest
    unfold boxC at h2
    rw [Lib.cell_of_heap h2]; rfl
  have y000 : bx ≠ w.heap.size := by
    have h2 := cellO_is hM.rest.rest.rest.rest
    have := (Array.getElem?_eq_some_iff.1 h2).1
    omega
  have HTB := Lib.hid htb
  have hs : fl.size ≤ 1073741000 := by omega
  have hk : k ≤ 1000000 := by omega
  have HSZ := Lib.hid hsz
  obtain ⟨wd, hwd⟩ : ∃ wd, w1.drew = wd := ⟨_, rfl⟩
  have M1d := Lib.hid (show Made w0 wd _ by rw [← hwd]; exact M1.out.below (page_lies pg g b v l k fl n (cntN l) HRL.out) (Below.refl _ _).drew)
  have hLK := run_look_cnt M1d.out.third nm
  rw [← hwd] at hLK
  have HWD := Lib.hid hwd
  clear hwd
  obtain ⟨c, hc⟩ : ∃ c, cntN l nm.data.toList = c := ⟨_, rfl⟩
  rw [hc] at hLK
  have hcz : c = 0 ↔ lastN l t.name = none := by rw [← hc, hnm2, cnt_zero, ← last_mem]
  obtain ⟨y1, y2, y3⟩ := deed_facts M1.out
  obtain ⟨z0, z1, z2, z3⟩ := page_cells M1.out
  clear z0 z1 z3 y2 hc
  by_cases hc0 : c = 0
  · have HLA := Lib.hid (hcz.1 hc0)
    subst hc0
    clear hcz hsz HSZ hnmE hnm2 hX hX2 hsf hw1 hm1 hM hR hRR hkind htb
    go_enter Tryz.func38, Tryz.ntmps38
    go_wp2
    rw [HW1.out]
    try rw [HTB.out]
    go_region
    all_goals
      (rw [HWD.out]
       obtain ⟨y1, y2, y3⟩ := deed_facts M1d.out
       have HHI := Lib.hid (hidden_any M1d.out)
       obtain ⟨B, hB⟩ : ∃ B, decide (l ≠ []) = B := ⟨_, rfl⟩
       rw [hB] at HHI
       have HB := Lib.hid hB
       clear hB
       go_wp2_with (fail)
       refine HHI.out.mono ?_
       rintro e w4 ⟨rfl, hw4⟩
       obtain rfl := hw4.symm
       cases B
       · have hl0 : l = [] := Classical.byContradiction fun h => of_decide_eq_false HB.out h
         go_wp2_with (fail)
         refine (part_any M1d.out HRL.out nm hs).mono ?_
         rintro e w5 ⟨rfl, m5⟩
         have M5 := Lib.hid m5
         clear m5
         rw [HNM2.out] at M5
         obtain ⟨y1, y2, y3⟩ := deed_facts M5.out
         go_wp2_with (fail)
         refine (keepLess_any M5.out HRL.out nm hk).mono ?_
         rintro e w6 ⟨rfl, m6⟩
         have M6 := Lib.hid m6
         clear m6
         rw [HNM2.out] at M6
         go_wp2
         refine bodyPost_end (results_none rfl _ _ _) (by rfl) ?_
         exact deed_done (n' := n) (r' := ⟨[], k - oneIf (keeN t.name), linesF t.name fl⟩) HRR.out (by rw [renT_end _ t HK.out]; simp only [HLA.out]; rw [if_pos hl0]) (by simp only [List.length_nil]; omega) (by have h6 := M6.out; rw [hl0] at h6; exact h6)
       · have hl0 : ¬ l = [] := of_decide_eq_true HB.out
         go_wp2
         refine bodyPost_end (results_none rfl _ _ _) (by rfl) ?_
         exact deed_done (n' := n) (r' := ⟨l, k, fl⟩) HRR.out (by rw [renT_end _ t HK.out]; simp only [HLA.out]; rw [if_neg hl0]) (by simp only; omega) M1d.out
)
  · obtain ⟨k0, hk0⟩ : ∃ k0, lastN l t.name = some k0 := by
      cases h : lastN l t.name with
      | none => exact absurd (hcz.2 h) hc0
      | some k0 => exact ⟨k0, rfl⟩
    have HLA := Lib.hid hk0
    have hd : decide ((0 : Int) < (c : Int)) = true := decide_eq_true (by omega)
    have hd2 : decide (0 < c) = true := decide_eq_true (by omega)
    have hkl : k0 < l.length := (last_some _ _ _ hk0).1
    clear hcz hsz hk0 hnmE hnm2 hX hX2 hsf hw1 hm1 hM hR hRR hkind htb
    go_enter Tryz.func38, Tryz.ntmps38
    go_wp2
    rw [HW1.out]
    try rw [HTB.out]
    go_region
    all_goals
      (rw [HWD.out]
       obtain ⟨y1, y2, y3⟩ := deed_facts M1d.out
       go_wp2_with (fail)
       refine (leave_any M1d.out HRL.out nm (by omega) (by omega) HSZ.out k0 (by rw [HNM2.out]; exact HLA.out)).mono ?_
       rintro e w5 ⟨rfl, v5, m5⟩
       have M5 := Lib.hid m5
       clear m5
       go_wp2
       refine bodyPost_end (results_none rfl _ _ _) (by rfl) ?_
       exact deed_done (n' := n + (l.length - k0)) (r' := ⟨l.take k0, k, fl⟩) HRR.out (by rw [renT_end _ t HK.out]; simp only [HLA.out]) (by simp only [List.length_take]; omega) M5.out)

set_option maxRecDepth 100000 in
set_option maxHeartbeats 16000000 in
theorem textD_any {w0 w : World} {pg : Nat} {g : Addr} {b : Nat} {v : Value} {l : List Txt} {k : Nat} {fl : FloP} {n : Nat} {R : Own} {bx : Nat} (hM : Made w0 w (PageS pg g b v l k fl n (cntN l) (Sep (CellO bx (boxC pg)) R))) (hR : Lies R) (t : TokP) (hkind : t.kind = 0) (ad : Option Addr) (ln cp : Nat)
    (hs : fl.size + t.text.length ≤ 1073741000) (hk : k ≤ 100000) (hl : l.length ≤ 100000) (_ : n ≤ 100000) :
    Calls Tryz.prog 40 #[tokA t ad ln cp, .pointer (some ⟨bx, 0, none⟩)] w (DeedP w0 pg g b (renT ⟨l, k, fl⟩ t) (n + l.length + 2) (Sep (CellO bx (boxC pg)) R)) := by
  obtain ⟨RR, hRR⟩ : ∃ RR, renT ⟨l, k, fl⟩ t = RR := ⟨_, rfl⟩
  have HRR := Lib.hid hRR
  rw [hRR]
  unfold tokA
  have HK := Lib.hid hkind
  rw [hkind]
  obtain ⟨nm, hnmE⟩ : ∃ nm : ByteArray, (⟨t.name.toArray⟩ : ByteArray) = nm := ⟨_, rfl⟩
  have hnm2 : nm.data.toList = t.name := by rw [← hnmE, List.toList_toArray]
  obtain ⟨X, hX⟩ : ∃ X : ByteArray, (⟨t.text.toArray⟩ : ByteArray) = X := ⟨_, rfl⟩
  have hX2 : X.data.toList = t.text := by rw [← hX, List.toList_toArray]
  have hXs : X.size = t.text.length := by rw [Lib.size_eq, hX2]
  rw [← hXs] at hs
  obtain ⟨sf, hsf⟩ : ∃ b, t.self = b := ⟨_, rfl⟩
  rw [hnmE, hX, hsf]
  have HNM2 := Lib.hid hnm2
  have HX2 := Lib.hid hX2
  obtain ⟨tb, htb⟩ : ∃ tb, w.heap.size = tb := ⟨_, rfl⟩
  have HRL0 := Lib.hid ((cellO_lies bx (boxC pg)).sep hR)
  have HRL := Lib.hid ((cellO_lies tb (tokC 0 nm X ad ln cp sf)).sep HRL0.out)
  have hm1 := (cellO_made hM (page_lies pg g b v l k fl n (cntN l) HRL0.out) (tokC 0 nm X ad ln cp sf)).imp (Imp.sink _ _ _ _ _ _ _ _ _ _ _)
  rw [htb] at hm1
  obtain ⟨w1, hw1⟩ : ∃ w1, w.alloc (tokC 0 nm X ad ln cp sf) = w1 := ⟨_, rfl⟩
  rw [hw1] at hm1
  have M1 := Lib.hid hm1
  have HW1 := Lib.hid (show w.alloc (.cells #[.int .i64 0, .string nm, .string X, .slice ad ln cp, .bool sf] 31) = w1 from hw1)
  have y0 : (w.alloc (.cells #[.int .i64 0, .string nm, .string X, .slice ad ln cp, .bool sf] 31)).cell? ⟨bx, 0, none⟩ = some (.pointer (some ⟨pg, 0, none⟩)) := by
    rw [HW1.out]
    exact (deed_facts hm1).2.2
  have y00 : w.cell? ⟨bx, 0, none⟩ = some (.pointer (some ⟨pg, 0, none⟩)) := by
    have h2 := cellO_is hM.rest.rest.rest.rest
    unfold boxC at h2
    rw [Lib.cell_of_heap h2]; rfl
  have y000 : bx ≠ w.heap.size := by
    have h2 := cellO_is hM.rest.rest.rest.rest
    have := (Array.getElem?_eq_some_iff.1 h2).1
    omega
  have HTB := Lib.hid htb
  have HC := Lib.hid (show Hid True from Lib.hid trivial)
  clear HC
  have HHI := Lib.hid (hidden_any M1.out)
  obtain ⟨B, hB⟩ : ∃ B, decide (l ≠ []) = B := ⟨_, rfl⟩
  rw [hB] at HHI
  have HB := Lib.hid hB
  clear hB
  cases B
  · have hl0 : l = [] := Classical.byContradiction fun h => of_decide_eq_false HB.out h
    have HL0 := Lib.hid hl0
    obtain ⟨wd, hwd⟩ : ∃ wd, w1.drew = wd := ⟨_, rfl⟩
    have M1d := Lib.hid (show Made w0 wd _ by rw [← hwd]; exact M1.out.below (page_lies pg g b v l k fl n (cntN l) HRL.out) (Below.refl _ _).drew)
    have HWD := Lib.hid hwd
    clear hwd
    obtain ⟨kb, hkb⟩ : ∃ kb, decide (0 < k) = kb := ⟨_, rfl⟩
    have HKB := Lib.hid hkb
    have hkb2 : decide ((0 : Int) < (k : Int)) = kb := by rw [← hkb]; exact Bool.eq_iff_iff.2 (by rw [decide_eq_true_iff, decide_eq_true_iff]; omega)
    have HP := Lib.hid (pagePut M1d.out HRL.out X kb (by omega))
    obtain ⟨y1, y2, y3⟩ := deed_facts M1.out
    obtain ⟨z0, z1, z2, z3⟩ := page_cells M1.out
    clear hl0 y1 z1 z2 hnmE hnm2 hX hX2 hsf hw1 hm1 hM hR hRR hkind htb
    go_enter Tryz.func40, Tryz.ntmps40
    go_wp2_with (fail)
    rw [HW1.out]
    try rw [HTB.out]
    refine HHI.out.mono ?_
    rintro e w4 ⟨rfl, hw4⟩
    obtain rfl := hw4.symm
    go_wp2
    go_still_tail 11, (by kernel_rfl)
    change wpList _ _ _ _ _ w1.drew
    rw [HWD.out]
    clear y2 y3 z0 z3
    go_wp2_with (go_at_call 41; refine HP.out.mono ?_; rintro e w5 ⟨rfl, m5⟩; have M5 := Lib.hid m5; clear m5)
    refine bodyPost_end (results_none rfl _ _ _) (by rfl) ?_
    exact deed_done (n' := n) (r' := ⟨[], k, putL kb fl t.text⟩) HRR.out (by rw [renT_text _ t HK.out, if_pos HL0.out, HKB.out]) (by simp only [List.length_nil]; omega) (by have h6 := M5.out; rw [HX2.out, HL0.out] at h6; exact h6)
  · have hl0 : ¬ l = [] := of_decide_eq_true HB.out
    clear hnmE hnm2 hX hX2 hsf hw1 hm1 hM hR hRR hkind htb
    go_enter Tryz.func40, Tryz.ntmps40
    go_wp2_with (fail)
    rw [HW1.out]
    try rw [HTB.out]
    refine HHI.out.mono ?_
    rintro e w4 ⟨rfl, hw4⟩
    obtain rfl := hw4.symm
    go_wp2
    refine bodyPost_end (results_none rfl _ _ _) (by rfl) ?_
    exact deed_done (n' := n) (r' := ⟨l, k, fl⟩) HRR.out (by rw [renT_text _ t HK.out, if_neg hl0]) (by simp only; omega) M1.out

end Go.Proofs.YtbcmfcddkegcoaaGreatDoor
