/-
  Texts laid together: KndMath, KndRef, KndCode.
-/
import Derived.Test.YtbcmfcddkegcoaaGreatDoorP1
import Derived.Test.YtbcmfcddkegcoaaGreatDoorProg
import Derived.WalkKit
import Derived.Below
/-! Which names do what to a text: plain mathematics. (Written by wip/tools/gen_knd.py.) -/
namespace Go.Proofs.YtbcmfcddkegcoaaGreatDoor
open Go.RowKit Go.Lib

def hidL : List (List UInt8) := [[104, 101, 97, 100], [105, 102, 114, 97, 109, 101], [110, 111, 101, 109, 98, 101, 100], [110, 111, 102, 114, 97, 109, 101, 115], [110, 111, 115, 99, 114, 105, 112, 116], [115, 99, 114, 105, 112, 116], [115, 116, 121, 108, 101], [116, 101, 109, 112, 108, 97, 116, 101], [116, 105, 116, 108, 101]]
def keeL : List (List UInt8) := [[108, 105, 115, 116, 105, 110, 103], [112, 108, 97, 105, 110, 116, 101, 120, 116], [112, 114, 101], [116, 101, 120, 116, 97, 114, 101, 97], [120, 109, 112]]
def twoL : List (List UInt8) := [[98, 108, 111, 99, 107, 113, 117, 111, 116, 101], [104, 49], [104, 50], [104, 51], [104, 52], [104, 53], [104, 54], [108, 105, 115, 116, 105, 110, 103], [111, 108], [112], [112, 108, 97, 105, 110, 116, 101, 120, 116], [112, 114, 101], [116, 97, 98, 108, 101], [117, 108], [120, 109, 112]]
def oneL : List (List UInt8) := [[97, 100, 100, 114, 101, 115, 115], [97, 114, 116, 105, 99, 108, 101], [97, 115, 105, 100, 101], [98, 111, 100, 121], [99, 101, 110, 116, 101, 114], [100, 100], [100, 101, 116, 97, 105, 108, 115], [100, 105, 97, 108, 111, 103], [100, 105, 114], [100, 105, 118], [100, 108], [100, 116], [102, 105, 101, 108, 100, 115, 101, 116], [102, 105, 103, 99, 97, 112, 116, 105, 111, 110], [102, 105, 103, 117, 114, 101], [102, 111, 111, 116, 101, 114], [102, 111, 114, 109], [104, 101, 97, 100, 101, 114], [104, 103, 114, 111, 117, 112], [104, 114], [104, 116, 109, 108], [108, 101, 103, 101, 110, 100], [108, 105], [109, 97, 105, 110], [109, 101, 110, 117], [110, 97, 118], [111, 112, 116, 105, 111, 110], [115, 101, 97, 114, 99, 104], [115, 101, 99, 116, 105, 111, 110], [115, 117, 109, 109, 97, 114, 121], [116, 114]]
/-- P17.1, P17.2 -/
def hidN (nm : (List UInt8)) : Bool := decide (nm ∈ hidL)
def keeN (nm : (List UInt8)) : Bool := decide (nm ∈ keeL)
def linN (nm : (List UInt8)) : Int := if nm ∈ twoL then 2 else if nm ∈ oneL then 1 else 0
theorem lin_range (nm : (List UInt8)) : 0 ≤ linN nm ∧ linN nm ≤ 2 := by
  unfold linN
  split
  · decide
  · split <;> decide
end Go.Proofs.YtbcmfcddkegcoaaGreatDoor

/-! What the document's functions of layer 17 answer. (Written by wip/tools/gen_knd.py.) -/
namespace Go.Proofs.YtbcmfcddkegcoaaGreatDoor
open Go.RowKit Go.Lib

end Go.Proofs.YtbcmfcddkegcoaaGreatDoor

/-! What package kinds' functions answer. (Written by wip/tools/gen_kndcode.py.) -/
namespace Go.Proofs.YtbcmfcddkegcoaaGreatDoor
open Go.RowKit Go.Lib

def KndLaid (_ : World) : Prop := True
theorem KndLaid.below {w w' : World} {n : Nat} (h : KndLaid w) (_ : Below n w w') : KndLaid w' := h
theorem knd_here (w : World) : KndLaid w := trivial

set_option maxRecDepth 100000 in
set_option maxHeartbeats 1000000 in
theorem among_any (nm : ByteArray) (L : List (List UInt8)) (A : Array Value) (n g : Nat) (w : World) (hn : L.length = n) (hm : n ≤ 1000)
    (hA : A = (L.map fun n => Value.string ⟨n.toArray⟩).toArray) (h : w.heap[g]? = some (.cells A 9 (0, 0))) :
    Calls Tryz.prog 59 #[.string nm, .slice (some ⟨g, 0, none⟩) n n] w fun e w' => e = .returned (.bool (decide (nm.data.toList ∈ L))) ∧ w' = w := by
  obtain ⟨B, hB⟩ : ∃ B, decide (nm.data.toList ∈ L) = B := ⟨_, rfl⟩
  rw [hB]
  have HB := Lib.hid hB
  have HA := Lib.hid hA
  have HH := Lib.hid h
  have HN := Lib.hid hn
  clear hB hA h hn
  go_enter Tryz.func59, Tryz.ntmps59
  go_wp2
  go_loopw [9] (fun v wr => ∃ i : Nat, v = .int .i64 (i : Int) ∧ w = wr ∧ i ≤ n ∧ Hid (∀ k (h : k < L.length), k < i → L[k] ≠ nm.data.toList)) (fun v _ => n - (intOf v).toNat)
  case atStart => exact ⟨0, rfl, rfl, Nat.zero_le _, Lib.hid fun k _ h => by omega⟩
  case round =>
    obtain ⟨i, rfl, rfl, hi, hno⟩ := hrel
    by_cases hlt : i < n
    · have hL : i < L.length := by rw [HN.out]; exact hlt
      obtain ⟨X, hX⟩ : ∃ X : ByteArray, (⟨(L[i]).toArray⟩ : ByteArray) = X := ⟨_, rfl⟩
      have hXL : X.data.toList = L[i] := by rw [← hX, List.toList_toArray]
      have hc : w.cell? ⟨g, i, none⟩ = some (.string X) := by
        rw [cell_of_row _ _ _ _ _ _ HH.out, HA.out, List.getElem?_toArray, List.getElem?_map, List.getElem?_eq_getElem hL, ← hX]; rfl
      have HX := Lib.hid hXL
      clear hX hXL
      by_cases he : nm.toList = X.toList
      · have b1 : (nm.toList == X.toList) = true := by simpa using he
        obtain rfl : B = true := by
          rw [← HB.out, decide_eq_true_eq, ← ByteArray.toList_eq, he, ByteArray.toList_eq, HX.out]; exact List.getElem_mem _
        clear he
        go_wp2
        go_ret
        exact ⟨rfl, rfl⟩
      · have b1 : (nm.toList == X.toList) = false := by simpa using he
        have HE := Lib.hid he
        clear he
        go_wp2
        go_roundw
        case rel =>
          refine ⟨i + 1, by simp, trivial, by omega, Lib.hid fun k hk hki => ?_⟩
          by_cases hk2 : k < i
          · exact hno.out k hk hk2
          · obtain rfl : k = i := by omega
            rw [← HX.out, ← ByteArray.toList_eq, ← ByteArray.toList_eq]; exact fun e => HE.out e.symm
        case measure => simp [intOf]; omega
    · obtain rfl : B = false := by
        rw [← HB.out, decide_eq_false_iff_not]
        intro hm
        obtain ⟨k, hk, e⟩ := List.getElem_of_mem hm
        exact hno.out k hk (by rw [HN.out] at hk; omega) e
      go_wp2
      go_ret
      exact ⟨rfl, rfl⟩

set_option maxRecDepth 100000 in
set_option maxHeartbeats 1000000 in
theorem kHid (nm : ByteArray) (w : World) :
    Calls Tryz.prog 33 #[.string nm] w fun e w' => e = .returned (.bool (decide (nm.data.toList ∈ hidL))) ∧ Below w.heap.size w w' := by
  have HM := fun (v : World) (h : v.heap[w.heap.size]? = some (.cells #[.string ⟨#[104, 101, 97, 100]⟩, .string ⟨#[105, 102, 114, 97, 109, 101]⟩, .string ⟨#[110, 111, 101, 109, 98, 101, 100]⟩, .string ⟨#[110, 111, 102, 114, 97, 109, 101, 115]⟩, .string ⟨#[110, 111, 115, 99, 114, 105, 112, 116]⟩, .string ⟨#[115, 99, 114, 105, 112, 116]⟩, .string ⟨#[115, 116, 121, 108, 101]⟩, .string ⟨#[116, 101, 109, 112, 108, 97, 116, 101]⟩, .string ⟨#[116, 105, 116, 108, 101]⟩] 9 (0, 0))) => Lib.hid (among_any nm hidL _ 9 w.heap.size v rfl (by decide) rfl h)
  obtain ⟨B, hB⟩ : ∃ B, decide (nm.data.toList ∈ hidL) = B := ⟨_, rfl⟩
  rw [hB] at HM ⊢
  clear hB
  go_enter Tryz.func33, Tryz.ntmps33
  go_wp2_with (fail)
  refine (HM _ (heap_alloc_new w _)).out.mono ?_
  rintro e w' ⟨rfl, rfl⟩
  go_wp2
  go_ret
  exact ⟨rfl, (Below.refl _ w).alloc (Nat.le_refl _) _⟩

set_option maxRecDepth 100000 in
set_option maxHeartbeats 1000000 in
theorem kKee (nm : ByteArray) (w : World) :
    Calls Tryz.prog 63 #[.string nm] w fun e w' => e = .returned (.bool (decide (nm.data.toList ∈ keeL))) ∧ Below w.heap.size w w' := by
  have HM := fun (v : World) (h : v.heap[w.heap.size]? = some (.cells #[.string ⟨#[108, 105, 115, 116, 105, 110, 103]⟩, .string ⟨#[112, 108, 97, 105, 110, 116, 101, 120, 116]⟩, .string ⟨#[112, 114, 101]⟩, .string ⟨#[116, 101, 120, 116, 97, 114, 101, 97]⟩, .string ⟨#[120, 109, 112]⟩] 9 (0, 0))) => Lib.hid (among_any nm keeL _ 5 w.heap.size v rfl (by decide) rfl h)
  obtain ⟨B, hB⟩ : ∃ B, decide (nm.data.toList ∈ keeL) = B := ⟨_, rfl⟩
  rw [hB] at HM ⊢
  clear hB
  go_enter Tryz.func63, Tryz.ntmps63
  go_wp2_with (fail)
  refine (HM _ (heap_alloc_new w _)).out.mono ?_
  rintro e w' ⟨rfl, rfl⟩
  go_wp2
  go_ret
  exact ⟨rfl, (Below.refl _ w).alloc (Nat.le_refl _) _⟩

set_option maxRecDepth 100000 in
set_option maxHeartbeats 1000000 in
theorem kTwo (nm : ByteArray) (w : World) :
    Calls Tryz.prog 90 #[.string nm] w fun e w' => e = .returned (.bool (decide (nm.data.toList ∈ twoL))) ∧ Below w.heap.size w w' := by
  have HM := fun (v : World) (h : v.heap[w.heap.size]? = some (.cells #[.string ⟨#[98, 108, 111, 99, 107, 113, 117, 111, 116, 101]⟩, .string ⟨#[104, 49]⟩, .string ⟨#[104, 50]⟩, .string ⟨#[104, 51]⟩, .string ⟨#[104, 52]⟩, .string ⟨#[104, 53]⟩, .string ⟨#[104, 54]⟩, .string ⟨#[108, 105, 115, 116, 105, 110, 103]⟩, .string ⟨#[111, 108]⟩, .string ⟨#[112]⟩, .string ⟨#[112, 108, 97, 105, 110, 116, 101, 120, 116]⟩, .string ⟨#[112, 114, 101]⟩, .string ⟨#[116, 97, 98, 108, 101]⟩, .string ⟨#[117, 108]⟩, .string ⟨#[120, 109, 112]⟩] 9 (0, 0))) => Lib.hid (among_any nm twoL _ 15 w.heap.size v rfl (by decide) rfl h)
  obtain ⟨B, hB⟩ : ∃ B, decide (nm.data.toList ∈ twoL) = B := ⟨_, rfl⟩
  rw [hB] at HM ⊢
  clear hB
  go_enter Tryz.func90, Tryz.ntmps90
  go_wp2_with (fail)
  refine (HM _ (heap_alloc_new w _)).out.mono ?_
  rintro e w' ⟨rfl, rfl⟩
  go_wp2
  go_ret
  exact ⟨rfl, (Below.refl _ w).alloc (Nat.le_refl _) _⟩

set_option maxRecDepth 100000 in
set_option maxHeartbeats 1000000 in
theorem kOne (nm : ByteArray) (w : World) :
    Calls Tryz.prog 91 #[.string nm] w fun e w' => e = .returned (.bool (decide (nm.data.toList ∈ oneL))) ∧ Below w.heap.size w w' := by
  have HM := fun (v : World) (h : v.heap[w.heap.size]? = some (.cells #[.string ⟨#[97, 100, 100, 114, 101, 115, 115]⟩, .string ⟨#[97, 114, 116, 105, 99, 108, 101]⟩, .string ⟨#[97, 115, 105, 100, 101]⟩, .string ⟨#[98, 111, 100, 121]⟩, .string ⟨#[99, 101, 110, 116, 101, 114]⟩, .string ⟨#[100, 100]⟩, .string ⟨#[100, 101, 116, 97, 105, 108, 115]⟩, .string ⟨#[100, 105, 97, 108, 111, 103]⟩, .string ⟨#[100, 105, 114]⟩, .string ⟨#[100, 105, 118]⟩, .string ⟨#[100, 108]⟩, .string ⟨#[100, 116]⟩, .string ⟨#[102, 105, 101, 108, 100, 115, 101, 116]⟩, .string ⟨#[102, 105, 103, 99, 97, 112, 116, 105, 111, 110]⟩, .string ⟨#[102, 105, 103, 117, 114, 101]⟩, .string ⟨#[102, 111, 111, 116, 101, 114]⟩, .string ⟨#[102, 111, 114, 109]⟩, .string ⟨#[104, 101, 97, 100, 101, 114]⟩, .string ⟨#[104, 103, 114, 111, 117, 112]⟩, .string ⟨#[104, 114]⟩, .string ⟨#[104, 116, 109, 108]⟩, .string ⟨#[108, 101, 103, 101, 110, 100]⟩, .string ⟨#[108, 105]⟩, .string ⟨#[109, 97, 105, 110]⟩, .string ⟨#[109, 101, 110, 117]⟩, .string ⟨#[110, 97, 118]⟩, .string ⟨#[111, 112, 116, 105, 111, 110]⟩, .string ⟨#[115, 101, 97, 114, 99, 104]⟩, .string ⟨#[115, 101, 99, 116, 105, 111, 110]⟩, .string ⟨#[115, 117, 109, 109, 97, 114, 121]⟩, .string ⟨#[116, 114]⟩] 9 (0, 0))) => Lib.hid (among_any nm oneL _ 31 w.heap.size v rfl (by decide) rfl h)
  obtain ⟨B, hB⟩ : ∃ B, decide (nm.data.toList ∈ oneL) = B := ⟨_, rfl⟩
  rw [hB] at HM ⊢
  clear hB
  go_enter Tryz.func91, Tryz.ntmps91
  go_wp2_with (fail)
  refine (HM _ (heap_alloc_new w _)).out.mono ?_
  rintro e w' ⟨rfl, rfl⟩
  go_wp2
  go_ret
  exact ⟨rfl, (Below.refl _ w).alloc (Nat.le_refl _) _⟩

theorem kHides_any (nm : ByteArray) (w : World) (_ : KndLaid w) :
    Calls Tryz.prog 33 #[.string nm] w fun e w' => e = .returned (.bool (hidN nm.data.toList)) ∧ Below w.heap.size w w' := kHid nm w
theorem kKeeps_any (nm : ByteArray) (w : World) (_ : KndLaid w) :
    Calls Tryz.prog 63 #[.string nm] w fun e w' => e = .returned (.bool (keeN nm.data.toList)) ∧ Below w.heap.size w w' := kKee nm w
set_option maxRecDepth 100000 in
set_option maxHeartbeats 1000000 in
theorem kLines_any (nm : ByteArray) (w : World) (_ : KndLaid w) :
    Calls Tryz.prog 61 #[.string nm] w fun e w' => e = .returned (.int .i64 (linN nm.data.toList)) ∧ Below w.heap.size w w' := by
  have H2 := fun w => Lib.hid (kTwo nm w)
  have H1 := fun w => Lib.hid (kOne nm w)
  unfold linN
  by_cases h2 : nm.data.toList ∈ twoL
  · rw [if_pos h2]
    rw [decide_eq_true h2] at H2
    clear h2 H1
    go_enter Tryz.func61, Tryz.ntmps61
    go_wp2_with (fail)
    refine (H2 _).out.mono ?_
    rintro e w1 ⟨rfl, c1⟩
    go_wp2
    go_ret
    exact ⟨rfl, c1⟩
  · rw [if_neg h2]
    rw [decide_eq_false h2] at H2
    clear h2
    by_cases h1 : nm.data.toList ∈ oneL
    · rw [if_pos h1]
      rw [decide_eq_true h1] at H1
      clear h1
      go_enter Tryz.func61, Tryz.ntmps61
      go_wp2_with (fail)
      refine (H2 _).out.mono ?_
      rintro e w1 ⟨rfl, c1⟩
      go_wp2_with (fail)
      refine (H1 _).out.mono ?_
      rintro e w2 ⟨rfl, c2⟩
      go_wp2
      go_ret
      exact ⟨rfl, c1.trans (c2.mono c1.size)⟩
    · rw [if_neg h1]
      rw [decide_eq_false h1] at H1
      clear h1
      go_enter Tryz.func61, Tryz.ntmps61
      go_wp2_with (fail)
      refine (H2 _).out.mono ?_
      rintro e w1 ⟨rfl, c1⟩
      go_wp2_with (fail)
      refine (H1 _).out.mono ?_
      rintro e w2 ⟨rfl, c2⟩
      go_wp2
      go_ret
      exact ⟨rfl, c1.trans (c2.mono c1.size)⟩
end Go.Proofs.YtbcmfcddkegcoaaGreatDoor
