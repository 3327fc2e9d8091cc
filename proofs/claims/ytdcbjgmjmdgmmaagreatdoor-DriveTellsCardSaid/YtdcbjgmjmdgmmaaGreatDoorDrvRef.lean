/-
  What the document's State and Drive of layer 16 answer. (Written by wip/tools/gen_drvref.py.)
-/
import Derived.Test.YtdcbjgmjmdgmmaaGreatDoorDrvMath
import Derived.Test.YtdcbjgmjmdgmmaaGreatDoorQH
import Derived.Test.YtdcbjgmjmdgmmaaGreatDoorTkRow
import Derived.Deep.RegionHeld3
namespace Go.Proofs.YtdcbjgmjmdgmmaaGreatDoor
open Go.RowKit Go.Lib

/-- none of the ten names, as a walk asks it -/
theorem no_names (nm : ByteArray) (h : ∀ p ∈ stTab, p.1 ≠ nm.data.toList) : ((nm.toList == [116, 105, 116, 108, 101]) = false) ∧ ((nm.toList == [116, 101, 120, 116, 97, 114, 101, 97]) = false) ∧ ((nm.toList == [115, 116, 121, 108, 101]) = false) ∧ ((nm.toList == [120, 109, 112]) = false) ∧ ((nm.toList == [105, 102, 114, 97, 109, 101]) = false) ∧ ((nm.toList == [110, 111, 101, 109, 98, 101, 100]) = false) ∧ ((nm.toList == [110, 111, 102, 114, 97, 109, 101, 115]) = false) ∧ ((nm.toList == [110, 111, 115, 99, 114, 105, 112, 116]) = false) ∧ ((nm.toList == [115, 99, 114, 105, 112, 116]) = false) ∧ ((nm.toList == [112, 108, 97, 105, 110, 116, 101, 120, 116]) = false) := by
  have hk : ∀ p ∈ stTab, (nm.toList == p.1) = false := fun p hp => by
    rw [beq_eq_false_iff_ne, ByteArray.toList_eq]; exact fun e => h p hp e.symm
  exact ⟨hk ([116, 105, 116, 108, 101], 1) (by simp [stTab]), hk ([116, 101, 120, 116, 97, 114, 101, 97], 1) (by simp [stTab]), hk ([115, 116, 121, 108, 101], 2) (by simp [stTab]), hk ([120, 109, 112], 2) (by simp [stTab]), hk ([105, 102, 114, 97, 109, 101], 2) (by simp [stTab]), hk ([110, 111, 101, 109, 98, 101, 100], 2) (by simp [stTab]), hk ([110, 111, 102, 114, 97, 109, 101, 115], 2) (by simp [stTab]), hk ([110, 111, 115, 99, 114, 105, 112, 116], 2) (by simp [stTab]), hk ([115, 99, 114, 105, 112, 116], 3) (by simp [stTab]), hk ([112, 108, 97, 105, 110, 116, 101, 120, 116], 4) (by simp [stTab])⟩

set_option maxRecDepth 100000 in
set_option maxHeartbeats 4000000 in
/-- P16.1, the document's -/
theorem refState16_any (nm : ByteArray) (w : World) :
    Calls Tryz.prog 14 #[.string nm] w fun e w' => e = .returned (.int .i64 (drvN nm.data.toList)) ∧ w' = w := by
  rcases st_cases nm.data.toList with ⟨p, hp, h1, h2⟩ | ⟨hn, h2⟩
  · rw [h2]
    have hnm : nm = ⟨p.1.toArray⟩ := str_ext (by rw [List.toList_toArray]; exact h1.symm)
    subst hnm
    clear h1 h2
    simp only [stTab, List.mem_cons, List.not_mem_nil, or_false] at hp
    rcases hp with rfl | rfl | rfl | rfl | rfl | rfl | rfl | rfl | rfl | rfl
    all_goals
      go_enter Tryz.func14, Tryz.ntmps14
      go_wp2
      go_ret
      exact ⟨rfl, rfl⟩
  · rw [h2]
    obtain ⟨e1, e2, e3, e4, e5, e6, e7, e8, e9, e10⟩ := no_names nm hn
    clear hn h2
    go_enter Tryz.func14, Tryz.ntmps14
    go_wp2
    go_ret
    exact ⟨rfl, rfl⟩
end Go.Proofs.YtdcbjgmjmdgmmaaGreatDoor
