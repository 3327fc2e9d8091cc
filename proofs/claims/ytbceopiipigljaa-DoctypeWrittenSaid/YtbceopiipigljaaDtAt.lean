/-
  What a doctype says, told by places in the text; a doctype's answer in a block of its own.
-/
import Derived.Test.YtbceopiipigljaaDtLaws
import Derived.Test.YtbceopiipigljaaRec
namespace Go.Proofs.Ytbceopiipigljaa
open Go.RowKit Go.Lib

theorem parse_blank (s : ByteArray) (ended : Bool) (h : seekP spaB s.data.toList 0 = s.size) : parseD s.data.toList ended = ⟨[], [], [], false, false, false, true⟩ := by
  have hd := seek_drop spaB s.data.toList 0
  rw [h, List.drop_zero, List.drop_eq_nil_of_le (by rw [← Lib.size_eq]; exact Nat.le_refl _)] at hd
  unfold parseD
  rw [← hd]
theorem parse_name (s : ByteArray) (ended : Bool) (i k : Nat) (hi : seekP spaB s.data.toList 0 = i) (hlt : i < s.size) (hk : seekP (fun c => !spaB c) s.data.toList i = k) :
    parseD s.data.toList ended = st2 ⟨cleanL (lowL (s.extract i k).data.toList), [], [], true, false, false, false⟩ ended (s.data.toList.drop k) := by
  have hd := seek_drop spaB s.data.toList 0
  rw [hi, List.drop_zero, drop_at s i hlt] at hd
  have hd2 := seek_drop (fun c => !spaB c) s.data.toList i
  rw [hk] at hd2
  have ht := seek_text (fun c => !spaB c) s i
  rw [hk] at ht
  unfold parseD
  rw [← hd]
  simp only
  rw [← drop_at s i hlt, ← hd2]
  unfold dtN
  rw [← ht]
theorem st2_end (s : ByteArray) (d : DocP) (ended : Bool) (k : Nat) (h : seekP spaB s.data.toList k = s.size) : st2 d ended (s.data.toList.drop k) = { d with q := !ended } := by
  have hd := seek_drop spaB s.data.toList k
  rw [h, List.drop_eq_nil_of_le (by rw [← Lib.size_eq]; exact Nat.le_refl _)] at hd
  unfold st2
  rw [← hd]
theorem st2_word (s : ByteArray) (d : DocP) (ended : Bool) (k i : Nat) (h : seekP spaB s.data.toList k = i) (hlt : i < s.size) :
    st2 d ended (s.data.toList.drop k) = if pubL.isPrefixOf (lowL (s.data.toList.drop i)) = true then st3 d ended (s.data.toList.drop (i + 6)) else if sysL.isPrefixOf (lowL (s.data.toList.drop i)) = true then st4 d ended (s.data.toList.drop (i + 6)) else { d with q := true } := by
  have hd := seek_drop spaB s.data.toList k
  rw [h, drop_at s i hlt] at hd
  unfold st2
  rw [← hd]
  simp only
  rw [← drop_at s i hlt, List.drop_drop]
theorem no_quote (s : ByteArray) (k i : Nat) (h : seekP spaB s.data.toList k = i) (hq : (s.data.toList.drop i).head?.any quoB = false) (d : DocP) (ended : Bool) :
    st3 d ended (s.data.toList.drop k) = { d with q := true } ∧ st4 d ended (s.data.toList.drop k) = { d with q := true } := by
  have hd := seek_drop spaB s.data.toList k
  rw [h] at hd
  rw [hd] at hq
  unfold st3 st4
  cases hc : (s.data.toList.drop k).dropWhile spaB with
  | nil => exact ⟨rfl, rfl⟩
  | cons c t =>
    rw [hc] at hq
    have hq : quoB c = false := by simpa using hq
    simp only
    rw [hq]
    exact ⟨rfl, rfl⟩
theorem is_quote (s : ByteArray) (i : Nat) (hq : (s.data.toList.drop i).head?.any quoB = true) : ∃ h : i < s.size, quoB s[i] = true := by
  have h : i < s.size := Nat.lt_of_not_le fun h => by
    rw [List.drop_eq_nil_of_le (by rw [← Lib.size_eq]; exact h)] at hq; simp at hq
  rw [drop_at s i h] at hq
  exact ⟨h, by simpa using hq⟩
theorem st4_quote (s : ByteArray) (k i : Nat) (h : seekP spaB s.data.toList k = i) (hi : i < s.size) (hq : quoB s[i] = true) (d : DocP) (ended : Bool) :
    st4 d ended (s.data.toList.drop k) = st5 d ended s[i] (s.data.toList.drop (i + 1)) := by
  have hd := seek_drop spaB s.data.toList k
  rw [h, drop_at s i hi] at hd
  unfold st4
  rw [← hd]
  simp only
  rw [if_pos hq]
/-- step 5 -/
theorem st5_at (s : ByteArray) (i k : Nat) (hi : i < s.size) (hk : seekP (· != s[i]) s.data.toList (i + 1) = k) (d : DocP) (ended : Bool) :
    (k = s.size → st5 d ended s[i] (s.data.toList.drop (i + 1)) = { d with sys := cleanL (s.extract (i + 1) k).data.toList, hs := true, q := true }) ∧
    (k < s.size → st5 d ended s[i] (s.data.toList.drop (i + 1)) = { d with sys := cleanL (s.extract (i + 1) k).data.toList, hs := true, q := decide (seekP spaB s.data.toList (k + 1) = s.size) && !ended }) := by
  have hd := seek_drop (· != s[i]) s.data.toList (i + 1)
  have ht := seek_text (· != s[i]) s (i + 1)
  rw [hk] at hd ht
  refine ⟨fun h => ?_, fun h => ?_⟩
  · rw [h, List.drop_eq_nil_of_le (by rw [← Lib.size_eq]; exact Nat.le_refl _)] at hd
    unfold st5
    rw [← hd]
    simp only
    rw [← ht]
  · rw [drop_at s k h] at hd
    have hd2 := seek_drop spaB s.data.toList (k + 1)
    have hle := seek_le spaB s (k + 1) h
    have he : ((s.data.toList.drop (k + 1)).dropWhile spaB).isEmpty = decide (seekP spaB s.data.toList (k + 1) = s.size) := by
      rw [← hd2, Bool.eq_iff_iff, List.isEmpty_iff, decide_eq_true_iff]
      exact drop_nil s _ hle.2
    unfold st5
    rw [← hd]
    simp only
    rw [← ht, he]
/-- step 3, behind its quote -/
theorem st3_at (s : ByteArray) (j i k : Nat) (hj : seekP spaB s.data.toList j = i) (hi : i < s.size) (hq : quoB s[i] = true) (hk : seekP (· != s[i]) s.data.toList (i + 1) = k) (d : DocP) (ended : Bool) :
    (k = s.size → st3 d ended (s.data.toList.drop j) = { d with pub := cleanL (s.extract (i + 1) k).data.toList, hp := true, q := true }) ∧
    (k < s.size → ∀ m, seekP spaB s.data.toList (k + 1) = m →
      (m = s.size → st3 d ended (s.data.toList.drop j) = { d with pub := cleanL (s.extract (i + 1) k).data.toList, hp := true, q := !ended }) ∧
      (m < s.size → (s.data.toList.drop m).head?.any quoB = false → st3 d ended (s.data.toList.drop j) = { d with pub := cleanL (s.extract (i + 1) k).data.toList, hp := true, q := true }) ∧
      ∀ hm : m < s.size, quoB s[m] = true → st3 d ended (s.data.toList.drop j) = st5 { d with pub := cleanL (s.extract (i + 1) k).data.toList, hp := true } ended s[m] (s.data.toList.drop (m + 1))) := by
  have hd0 := seek_drop spaB s.data.toList j
  rw [hj, drop_at s i hi] at hd0
  have hd := seek_drop (· != s[i]) s.data.toList (i + 1)
  have ht := seek_text (· != s[i]) s (i + 1)
  rw [hk] at hd ht
  refine ⟨fun h => ?_, fun h m hm => ?_⟩
  · rw [h, List.drop_eq_nil_of_le (by rw [← Lib.size_eq]; exact Nat.le_refl _)] at hd
    unfold st3
    rw [← hd0]
    simp only
    rw [if_pos hq, ← hd]
    simp only
    rw [← ht]
  · rw [drop_at s k h] at hd
    have hd2 := seek_drop spaB s.data.toList (k + 1)
    rw [hm] at hd2
    refine ⟨fun h2 => ?_, fun h2 h3 => ?_, fun h2 h3 => ?_⟩
    · rw [h2, List.drop_eq_nil_of_le (by rw [← Lib.size_eq]; exact Nat.le_refl _)] at hd2
      unfold st3
      rw [← hd0]
      simp only
      rw [if_pos hq, ← hd]
      simp only
      rw [← hd2]
      simp only
      rw [← ht]
    · rw [drop_at s m h2] at hd2 h3
      have h3 : quoB s[m] = false := by simpa using h3
      unfold st3
      rw [← hd0]
      simp only
      rw [if_pos hq, ← hd]
      simp only
      rw [← hd2]
      simp only
      rw [h3, if_neg Bool.false_ne_true, ← ht]
    · rw [drop_at s m h2] at hd2
      unfold st3
      rw [← hd0]
      simp only
      rw [if_pos hq, ← hd]
      simp only
      rw [← hd2]
      simp only
      rw [if_pos h3, ← ht]

/-- a doctype's answer in the block g -/
def docCells (d : DocP) : Array Value := #[.string ⟨d.name.toArray⟩, .string ⟨d.pub.toArray⟩, .string ⟨d.sys.toArray⟩, .bool d.hn, .bool d.hp, .bool d.hs, .bool d.q]
def DocAt (T : TypeId) (w : World) (g : Nat) (d : DocP) : Prop := w.heap[g]? = some (.cells (docCells d) T (0, 0))
def doc0 : DocP := ⟨[], [], [], false, false, false, false⟩
theorem docAt_new (T : TypeId) (w : World) : DocAt T (w.alloc (.cells #[.string ⟨#[]⟩, .string ⟨#[]⟩, .string ⟨#[]⟩, .bool false, .bool false, .bool false, .bool false] T)) w.heap.size doc0 := heap_alloc_new w _
theorem DocAt.lt {T : TypeId} {w : World} {g : Nat} {d : DocP} (h : DocAt T w g d) : g < w.heap.size := (Array.getElem?_eq_some_iff.1 h).1
theorem DocAt.below {T : TypeId} {w w' : World} {g : Nat} {d : DocP} (h : DocAt T w g d) (hb : Below w.heap.size w w') : DocAt T w' g d := (hb.block _ h.lt).trans h
theorem DocAt.kept {T : TypeId} {w w' : World} {g k : Nat} {d : DocP} (h : DocAt T w g d) (hg : w.grownBy w' (some k)) (hne : g ≠ k) : DocAt T w' g d := (hg.block _ h.lt (fun e => hne (Option.some.inj e))).trans h
theorem docAt_cells {T : TypeId} {w : World} {g : Nat} {d : DocP} (h : DocAt T w g d) :
    w.cell? ⟨g, 0, none⟩ = some (.string ⟨d.name.toArray⟩) ∧ w.cell? ⟨g, 1, none⟩ = some (.string ⟨d.pub.toArray⟩) ∧ w.cell? ⟨g, 2, none⟩ = some (.string ⟨d.sys.toArray⟩) ∧ w.cell? ⟨g, 3, none⟩ = some (.bool d.hn) ∧
    w.cell? ⟨g, 4, none⟩ = some (.bool d.hp) ∧ w.cell? ⟨g, 5, none⟩ = some (.bool d.hs) ∧ w.cell? ⟨g, 6, none⟩ = some (.bool d.q) := by
  refine ⟨?_, ?_, ?_, ?_, ?_, ?_, ?_⟩ <;> (rw [cell_of_row _ _ _ _ _ _ h]; rfl)
section
variable {P : Program} {ops : Array Oper} {rest : List Oper} {o : Oper} {a : Act} {w : World} {Q : Exit → Act → World → Prop}
theorem wpList_store_doc1 (T : TypeId) (hg : o.guard = none) (ty : TypeId) (x y : Operand) (ho : o.op = .store ty x y) (g i : Nat) (v : Value) (d d' : DocP)
    (hx : a.eval x = .pointer (some ⟨g, i, none⟩)) (hy : a.eval y = v) (hb : DocAt T w g d) (hi : i < 7) (hs : (P.info? ty).map (·.size) = some 1) (h1 : v.oneCell' = true) (hc : v.cells = #[v]) (hd : (docCells d).setIfInBounds i v = docCells d')
    (hK : ∀ w', DocAt T w' g d' → w.grownBy w' (some g) → wpList P ops Q rest (a.put o.dst undef) w') :
    wpList P ops Q (o :: rest) a w :=
  wpList_store_one hg ty x y ho g i v T hx hy (docCells d) hb hi hs h1 hc (fun w' h => hK w' (by unfold DocAt; rw [← hd]; exact h))
theorem wpList_load_doc (T : TypeId) (hg : o.guard = none) (x : Operand) (ho : o.op = .load T x) (g : Nat) (d : DocP) (D : TypeDesc)
    (hx : a.eval x = .pointer (some ⟨g, 0, none⟩)) (hb : DocAt T w g d) (hu : P.underlying T = some D) (hd : (match D with | .struct _ | .array _ _ => true | _ => false) = true) (hs : (P.info? T).map (·.size) = some 7)
    (hK : wpList P ops Q rest (a.put o.dst (docV d)) w) : wpList P ops Q (o :: rest) a w :=
  wpList_load_rec hg T x ho g T (docCells d) D hx hb hu hd hs hK
theorem wpList_store_doc (T : TypeId) (hg : o.guard = none) (x y : Operand) (ho : o.op = .store T x y) (g : Nat) (d old : DocP)
    (hx : a.eval x = .pointer (some ⟨g, 0, none⟩)) (hy : a.eval y = docV d) (hb : DocAt T w g old) (hs : (P.info? T).map (·.size) = some 7)
    (hK : ∀ w', DocAt T w' g d → w.grownBy w' (some g) → wpList P ops Q rest (a.put o.dst undef) w') : wpList P ops Q (o :: rest) a w :=
  wpList_store_rec hg T x y ho g (docCells d) T hx hy (docCells old) hb hs rfl (by simp [docCells, Value.oneCell']) hK
end
end Go.Proofs.Ytbceopiipigljaa
