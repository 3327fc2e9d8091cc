/-
  The chapter's example, as the statements of layer 8 ask for it.
-/
import Derived.Test.YtpdmnnfbdeiejaaGreatDoorAttCode
import Derived.KernelRfl
namespace Go.Proofs.YtpdmnnfbdeiejaaGreatDoor
open Go.RowKit Go.Lib

/-- a list that is written out reads as it is written -/
theorem isRows_new (wr : World) (l : List Ln) (T : TypeId) (hl : l.length ≤ 1048576) : IsRows (wr.alloc (.cells (cellsR l).toArray T)) (some ⟨wr.heap.size, 0, none⟩) l.length l.length l := by
  refine ⟨rfl, Nat.le_refl _, by simp only [maxLen]; omega, fun i hi => ⟨_, rfl, ?_, ?_⟩⟩
  · have e : ((⟨wr.heap.size, 0, none⟩ : Addr).add (i * 2)) = ⟨wr.heap.size, i * 2, none⟩ := by simp [Addr.add]; omega
    rw [e, cell_of_row _ _ _ _ _ _ (heap_alloc_new wr _)]
    simpa using (cellsR_at l i hi).1
  · have e : ((⟨wr.heap.size, 0, none⟩ : Addr).add (i * 2 + 1)) = ⟨wr.heap.size, i * 2 + 1, none⟩ := by simp [Addr.add]
    rw [e, cell_of_row _ _ _ _ _ _ (heap_alloc_new wr _)]
    simpa using (cellsR_at l i hi).2
theorem isRows_put (wr : World) (g : Nat) (l : List Ln) (T : TypeId) (hg : wr.heap.size = g) (hl : l.length ≤ 1048576) (cs : Array Value) (hc : cs = (cellsR l).toArray) : IsRows (wr.alloc (.cells cs T)) (some ⟨g, 0, none⟩) l.length l.length l := by
  subst hg; subst hc; exact isRows_new wr l T hl
/-- the example -/
def exL : List Ln := [([120], [49]), ([121], [60]), ([122], [])]
set_option maxRecDepth 100000 in
theorem ax1 : attrsV [32, 120, 61, 49, 32, 89, 61, 39, 38, 108, 116, 59, 39, 32, 122, 47, 62] 0 = (exL, true, 17, true) := by kernel_rfl

set_option maxRecDepth 100000 in
set_option maxHeartbeats 1000000 in
theorem attAwake_any (w : World) (h : LaidAt w) :
    Calls Tryz.prog 4 #[] w fun e w' => e = .returned (.bool true) ∧ Below w.heap.size w w' := by
  have H1 := Lib.hid (attrs_any ⟨#[32, 120, 61, 49, 32, 89, 61, 39, 38, 108, 116, 59, 39, 32, 122, 47, 62]⟩ 0 w (by decide) (by decide) h)
  have HX := Lib.hid ax1
  clear h
  go_enter Tryz.func4, Tryz.ntmps4
  go_wp2_with (fail)
  refine H1.out.mono ?_
  rintro e w1 ⟨ad, len, cap, l, self, n, ok, rfl, hr, hv, b1⟩
  have hv : attrsV [32, 120, 61, 49, 32, 89, 61, 39, 38, 108, 116, 59, 39, 32, 122, 47, 62] 0 = (l, self, n, ok) := hv
  rw [HX.out] at hv
  simp only [Prod.mk.injEq] at hv
  obtain ⟨rfl, rfl, rfl, rfl⟩ := hv
  have HR := Lib.hid hr
  clear hr
  go_wp2_with (fail)
  refine (refSame_any _ _ _ _ _ _ exL exL _ (HR.out.below ((Below.refl w1.heap.size w1).alloc (Nat.le_refl _) _) (Nat.le_refl _)) (isRows_new w1 exL 29 (by decide))).mono ?_
  rintro e w2 ⟨rfl, d, rfl⟩
  go_wp2
  go_ret
  exact ⟨ret_bool (by decide), (b1.alloc b1.size _).trans (dr_below _ _ _)⟩
end Go.Proofs.YtpdmnnfbdeiejaaGreatDoor
