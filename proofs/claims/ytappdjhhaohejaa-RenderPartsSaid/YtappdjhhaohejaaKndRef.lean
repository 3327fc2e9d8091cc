/-
  What the document's functions of layer 17 answer. (Written by wip/tools/gen_knd.py.)
-/
import Derived.Test.YtappdjhhaohejaaKndMath
import Derived.Test.YtappdjhhaohejaaProg
import Derived.WalkKit
import Derived.Below
namespace Go.Proofs.Ytappdjhhaohejaa
open Go.RowKit Go.Lib

theorem no_hidL (nm : ByteArray) (h : nm.data.toList ∉ hidL) : ((nm.toList == [104, 101, 97, 100]) = false) ∧ ((nm.toList == [105, 102, 114, 97, 109, 101]) = false) ∧ ((nm.toList == [110, 111, 101, 109, 98, 101, 100]) = false) ∧ ((nm.toList == [110, 111, 102, 114, 97, 109, 101, 115]) = false) ∧ ((nm.toList == [110, 111, 115, 99, 114, 105, 112, 116]) = false) ∧ ((nm.toList == [115, 99, 114, 105, 112, 116]) = false) ∧ ((nm.toList == [115, 116, 121, 108, 101]) = false) ∧ ((nm.toList == [116, 101, 109, 112, 108, 97, 116, 101]) = false) ∧ ((nm.toList == [116, 105, 116, 108, 101]) = false) := by
  have hk : ∀ p ∈ hidL, (nm.toList == p) = false := fun p hp => by
    rw [beq_eq_false_iff_ne, ByteArray.toList_eq]; exact fun e => h (e ▸ hp)
  exact ⟨hk [104, 101, 97, 100] (by simp [hidL]), hk [105, 102, 114, 97, 109, 101] (by simp [hidL]), hk [110, 111, 101, 109, 98, 101, 100] (by simp [hidL]), hk [110, 111, 102, 114, 97, 109, 101, 115] (by simp [hidL]), hk [110, 111, 115, 99, 114, 105, 112, 116] (by simp [hidL]), hk [115, 99, 114, 105, 112, 116] (by simp [hidL]), hk [115, 116, 121, 108, 101] (by simp [hidL]), hk [116, 101, 109, 112, 108, 97, 116, 101] (by simp [hidL]), hk [116, 105, 116, 108, 101] (by simp [hidL])⟩

set_option maxRecDepth 100000 in
set_option maxHeartbeats 8000000 in
theorem refHides17_any (nm : ByteArray) (w : World) :
    Calls Try.prog 21 #[.string nm] w fun e w' => e = .returned (.bool (hidN nm.data.toList)) ∧ w' = w := by
  by_cases h : nm.data.toList ∈ hidL
  · rw [show hidN nm.data.toList = true from decide_eq_true h]
    obtain ⟨n, hn, e⟩ : ∃ n ∈ hidL, n = nm.data.toList := ⟨_, h, rfl⟩
    have hnm : nm = ⟨n.toArray⟩ := str_ext (by rw [List.toList_toArray]; exact e.symm)
    subst hnm
    clear h e
    simp only [hidL, List.mem_cons, List.not_mem_nil, or_false] at hn
    rcases hn with rfl | rfl | rfl | rfl | rfl | rfl | rfl | rfl | rfl
    all_goals
      go_enter Try.func21, Try.ntmps21
      go_wp2
      go_ret
      exact ⟨rfl, rfl⟩
  · rw [show hidN nm.data.toList = false from decide_eq_false h]
    obtain ⟨e0, e1, e2, e3, e4, e5, e6, e7, e8⟩ := no_hidL nm h
    clear h
    go_enter Try.func21, Try.ntmps21
    go_wp2
    go_ret
    exact ⟨rfl, rfl⟩

theorem no_keeL (nm : ByteArray) (h : nm.data.toList ∉ keeL) : ((nm.toList == [108, 105, 115, 116, 105, 110, 103]) = false) ∧ ((nm.toList == [112, 108, 97, 105, 110, 116, 101, 120, 116]) = false) ∧ ((nm.toList == [112, 114, 101]) = false) ∧ ((nm.toList == [116, 101, 120, 116, 97, 114, 101, 97]) = false) ∧ ((nm.toList == [120, 109, 112]) = false) := by
  have hk : ∀ p ∈ keeL, (nm.toList == p) = false := fun p hp => by
    rw [beq_eq_false_iff_ne, ByteArray.toList_eq]; exact fun e => h (e ▸ hp)
  exact ⟨hk [108, 105, 115, 116, 105, 110, 103] (by simp [keeL]), hk [112, 108, 97, 105, 110, 116, 101, 120, 116] (by simp [keeL]), hk [112, 114, 101] (by simp [keeL]), hk [116, 101, 120, 116, 97, 114, 101, 97] (by simp [keeL]), hk [120, 109, 112] (by simp [keeL])⟩

set_option maxRecDepth 100000 in
set_option maxHeartbeats 8000000 in
theorem refKeeps17_any (nm : ByteArray) (w : World) :
    Calls Try.prog 19 #[.string nm] w fun e w' => e = .returned (.bool (keeN nm.data.toList)) ∧ w' = w := by
  by_cases h : nm.data.toList ∈ keeL
  · rw [show keeN nm.data.toList = true from decide_eq_true h]
    obtain ⟨n, hn, e⟩ : ∃ n ∈ keeL, n = nm.data.toList := ⟨_, h, rfl⟩
    have hnm : nm = ⟨n.toArray⟩ := str_ext (by rw [List.toList_toArray]; exact e.symm)
    subst hnm
    clear h e
    simp only [keeL, List.mem_cons, List.not_mem_nil, or_false] at hn
    rcases hn with rfl | rfl | rfl | rfl | rfl
    all_goals
      go_enter Try.func19, Try.ntmps19
      go_wp2
      go_ret
      exact ⟨rfl, rfl⟩
  · rw [show keeN nm.data.toList = false from decide_eq_false h]
    obtain ⟨e0, e1, e2, e3, e4⟩ := no_keeL nm h
    clear h
    go_enter Try.func19, Try.ntmps19
    go_wp2
    go_ret
    exact ⟨rfl, rfl⟩

theorem no_voiL (nm : ByteArray) (h : nm.data.toList ∉ voiL) : ((nm.toList == [97, 114, 101, 97]) = false) ∧ ((nm.toList == [98, 97, 115, 101]) = false) ∧ ((nm.toList == [98, 114]) = false) ∧ ((nm.toList == [99, 111, 108]) = false) ∧ ((nm.toList == [101, 109, 98, 101, 100]) = false) ∧ ((nm.toList == [104, 114]) = false) ∧ ((nm.toList == [105, 109, 103]) = false) ∧ ((nm.toList == [105, 110, 112, 117, 116]) = false) ∧ ((nm.toList == [108, 105, 110, 107]) = false) ∧ ((nm.toList == [109, 101, 116, 97]) = false) ∧ ((nm.toList == [115, 111, 117, 114, 99, 101]) = false) ∧ ((nm.toList == [116, 114, 97, 99, 107]) = false) ∧ ((nm.toList == [119, 98, 114]) = false) := by
  have hk : ∀ p ∈ voiL, (nm.toList == p) = false := fun p hp => by
    rw [beq_eq_false_iff_ne, ByteArray.toList_eq]; exact fun e => h (e ▸ hp)
  exact ⟨hk [97, 114, 101, 97] (by simp [voiL]), hk [98, 97, 115, 101] (by simp [voiL]), hk [98, 114] (by simp [voiL]), hk [99, 111, 108] (by simp [voiL]), hk [101, 109, 98, 101, 100] (by simp [voiL]), hk [104, 114] (by simp [voiL]), hk [105, 109, 103] (by simp [voiL]), hk [105, 110, 112, 117, 116] (by simp [voiL]), hk [108, 105, 110, 107] (by simp [voiL]), hk [109, 101, 116, 97] (by simp [voiL]), hk [115, 111, 117, 114, 99, 101] (by simp [voiL]), hk [116, 114, 97, 99, 107] (by simp [voiL]), hk [119, 98, 114] (by simp [voiL])⟩

theorem no_twoL (nm : ByteArray) (h : nm.data.toList ∉ twoL) : ((nm.toList == [98, 108, 111, 99, 107, 113, 117, 111, 116, 101]) = false) ∧ ((nm.toList == [104, 49]) = false) ∧ ((nm.toList == [104, 50]) = false) ∧ ((nm.toList == [104, 51]) = false) ∧ ((nm.toList == [104, 52]) = false) ∧ ((nm.toList == [104, 53]) = false) ∧ ((nm.toList == [104, 54]) = false) ∧ ((nm.toList == [108, 105, 115, 116, 105, 110, 103]) = false) ∧ ((nm.toList == [111, 108]) = false) ∧ ((nm.toList == [112]) = false) ∧ ((nm.toList == [112, 108, 97, 105, 110, 116, 101, 120, 116]) = false) ∧ ((nm.toList == [112, 114, 101]) = false) ∧ ((nm.toList == [116, 97, 98, 108, 101]) = false) ∧ ((nm.toList == [117, 108]) = false) ∧ ((nm.toList == [120, 109, 112]) = false) := by
  have hk : ∀ p ∈ twoL, (nm.toList == p) = false := fun p hp => by
    rw [beq_eq_false_iff_ne, ByteArray.toList_eq]; exact fun e => h (e ▸ hp)
  exact ⟨hk [98, 108, 111, 99, 107, 113, 117, 111, 116, 101] (by simp [twoL]), hk [104, 49] (by simp [twoL]), hk [104, 50] (by simp [twoL]), hk [104, 51] (by simp [twoL]), hk [104, 52] (by simp [twoL]), hk [104, 53] (by simp [twoL]), hk [104, 54] (by simp [twoL]), hk [108, 105, 115, 116, 105, 110, 103] (by simp [twoL]), hk [111, 108] (by simp [twoL]), hk [112] (by simp [twoL]), hk [112, 108, 97, 105, 110, 116, 101, 120, 116] (by simp [twoL]), hk [112, 114, 101] (by simp [twoL]), hk [116, 97, 98, 108, 101] (by simp [twoL]), hk [117, 108] (by simp [twoL]), hk [120, 109, 112] (by simp [twoL])⟩

theorem no_oneL (nm : ByteArray) (h : nm.data.toList ∉ oneL) : ((nm.toList == [97, 100, 100, 114, 101, 115, 115]) = false) ∧ ((nm.toList == [97, 114, 116, 105, 99, 108, 101]) = false) ∧ ((nm.toList == [97, 115, 105, 100, 101]) = false) ∧ ((nm.toList == [98, 111, 100, 121]) = false) ∧ ((nm.toList == [99, 101, 110, 116, 101, 114]) = false) ∧ ((nm.toList == [100, 100]) = false) ∧ ((nm.toList == [100, 101, 116, 97, 105, 108, 115]) = false) ∧ ((nm.toList == [100, 105, 97, 108, 111, 103]) = false) ∧ ((nm.toList == [100, 105, 114]) = false) ∧ ((nm.toList == [100, 105, 118]) = false) ∧ ((nm.toList == [100, 108]) = false) ∧ ((nm.toList == [100, 116]) = false) ∧ ((nm.toList == [102, 105, 101, 108, 100, 115, 101, 116]) = false) ∧ ((nm.toList == [102, 105, 103, 99, 97, 112, 116, 105, 111, 110]) = false) ∧ ((nm.toList == [102, 105, 103, 117, 114, 101]) = false) ∧ ((nm.toList == [102, 111, 111, 116, 101, 114]) = false) ∧ ((nm.toList == [102, 111, 114, 109]) = false) ∧ ((nm.toList == [104, 101, 97, 100, 101, 114]) = false) ∧ ((nm.toList == [104, 103, 114, 111, 117, 112]) = false) ∧ ((nm.toList == [104, 114]) = false) ∧ ((nm.toList == [104, 116, 109, 108]) = false) ∧ ((nm.toList == [108, 101, 103, 101, 110, 100]) = false) ∧ ((nm.toList == [108, 105]) = false) ∧ ((nm.toList == [109, 97, 105, 110]) = false) ∧ ((nm.toList == [109, 101, 110, 117]) = false) ∧ ((nm.toList == [110, 97, 118]) = false) ∧ ((nm.toList == [111, 112, 116, 105, 111, 110]) = false) ∧ ((nm.toList == [115, 101, 97, 114, 99, 104]) = false) ∧ ((nm.toList == [115, 101, 99, 116, 105, 111, 110]) = false) ∧ ((nm.toList == [115, 117, 109, 109, 97, 114, 121]) = false) ∧ ((nm.toList == [116, 114]) = false) := by
  have hk : ∀ p ∈ oneL, (nm.toList == p) = false := fun p hp => by
    rw [beq_eq_false_iff_ne, ByteArray.toList_eq]; exact fun e => h (e ▸ hp)
  exact ⟨hk [97, 100, 100, 114, 101, 115, 115] (by simp [oneL]), hk [97, 114, 116, 105, 99, 108, 101] (by simp [oneL]), hk [97, 115, 105, 100, 101] (by simp [oneL]), hk [98, 111, 100, 121] (by simp [oneL]), hk [99, 101, 110, 116, 101, 114] (by simp [oneL]), hk [100, 100] (by simp [oneL]), hk [100, 101, 116, 97, 105, 108, 115] (by simp [oneL]), hk [100, 105, 97, 108, 111, 103] (by simp [oneL]), hk [100, 105, 114] (by simp [oneL]), hk [100, 105, 118] (by simp [oneL]), hk [100, 108] (by simp [oneL]), hk [100, 116] (by simp [oneL]), hk [102, 105, 101, 108, 100, 115, 101, 116] (by simp [oneL]), hk [102, 105, 103, 99, 97, 112, 116, 105, 111, 110] (by simp [oneL]), hk [102, 105, 103, 117, 114, 101] (by simp [oneL]), hk [102, 111, 111, 116, 101, 114] (by simp [oneL]), hk [102, 111, 114, 109] (by simp [oneL]), hk [104, 101, 97, 100, 101, 114] (by simp [oneL]), hk [104, 103, 114, 111, 117, 112] (by simp [oneL]), hk [104, 114] (by simp [oneL]), hk [104, 116, 109, 108] (by simp [oneL]), hk [108, 101, 103, 101, 110, 100] (by simp [oneL]), hk [108, 105] (by simp [oneL]), hk [109, 97, 105, 110] (by simp [oneL]), hk [109, 101, 110, 117] (by simp [oneL]), hk [110, 97, 118] (by simp [oneL]), hk [111, 112, 116, 105, 111, 110] (by simp [oneL]), hk [115, 101, 97, 114, 99, 104] (by simp [oneL]), hk [115, 101, 99, 116, 105, 111, 110] (by simp [oneL]), hk [115, 117, 109, 109, 97, 114, 121] (by simp [oneL]), hk [116, 114] (by simp [oneL])⟩

set_option maxRecDepth 100000 in
set_option maxHeartbeats 8000000 in
theorem refLines17_any (nm : ByteArray) (w : World) :
    Calls Try.prog 39 #[.string nm] w fun e w' => e = .returned (.int .i64 (linN nm.data.toList)) ∧ w' = w := by
  by_cases h : nm.data.toList ∈ twoL
  · rw [show linN nm.data.toList = 2 from if_pos h]
    obtain ⟨n, hn, e⟩ : ∃ n ∈ twoL, n = nm.data.toList := ⟨_, h, rfl⟩
    have hnm : nm = ⟨n.toArray⟩ := str_ext (by rw [List.toList_toArray]; exact e.symm)
    subst hnm
    clear h e
    simp only [twoL, List.mem_cons, List.not_mem_nil, or_false] at hn
    rcases hn with rfl | rfl | rfl | rfl | rfl | rfl | rfl | rfl | rfl | rfl | rfl | rfl | rfl | rfl | rfl
    all_goals
      go_enter Try.func39, Try.ntmps39
      go_wp2
      go_ret
      exact ⟨rfl, rfl⟩
  · have hl : linN nm.data.toList = (if nm.data.toList ∈ oneL then 1 else 0) := if_neg h
    rw [hl]
    clear hl
    obtain ⟨e0, e1, e2, e3, e4, e5, e6, e7, e8, e9, e10, e11, e12, e13, e14⟩ := no_twoL nm h
    by_cases h2 : nm.data.toList ∈ oneL
    · rw [if_pos h2]
      clear e0 e1 e2 e3 e4 e5 e6 e7 e8 e9 e10 e11 e12 e13 e14
      obtain ⟨n, hn, e⟩ : ∃ n ∈ oneL, n = nm.data.toList := ⟨_, h2, rfl⟩
      have hnm : nm = ⟨n.toArray⟩ := str_ext (by rw [List.toList_toArray]; exact e.symm)
      subst hnm
      clear h h2 e
      simp only [oneL, List.mem_cons, List.not_mem_nil, or_false] at hn
      rcases hn with rfl | rfl | rfl | rfl | rfl | rfl | rfl | rfl | rfl | rfl | rfl | rfl | rfl | rfl | rfl | rfl | rfl | rfl | rfl | rfl | rfl | rfl | rfl | rfl | rfl | rfl | rfl | rfl | rfl | rfl | rfl
      all_goals
        go_enter Try.func39, Try.ntmps39
        go_wp2
        go_ret
        exact ⟨rfl, rfl⟩
    · rw [if_neg h2]
      obtain ⟨f0, f1, f2, f3, f4, f5, f6, f7, f8, f9, f10, f11, f12, f13, f14, f15, f16, f17, f18, f19, f20, f21, f22, f23, f24, f25, f26, f27, f28, f29, f30⟩ := no_oneL nm h2
      clear h h2
      go_enter Try.func39, Try.ntmps39
      go_wp2
      go_ret
      exact ⟨rfl, rfl⟩

set_option maxRecDepth 100000 in
set_option maxHeartbeats 8000000 in
theorem refNames17_any (w : World) :
    Calls Try.prog 14 #[] w fun e w' => e = .returned (.slice (some ⟨w.heap.size, 0, none⟩) 78 78) ∧ w'.heap[w.heap.size]? = some (.cells nmLit17 9 (0, 0)) ∧ Below w.heap.size w w' := by
  go_enter Try.func14, Try.ntmps14
  go_wp2
  go_ret
  exact ⟨rfl, heap_alloc_new w _, (Below.refl _ w).alloc (Nat.le_refl _) _⟩
end Go.Proofs.Ytappdjhhaohejaa
