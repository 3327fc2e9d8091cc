/-
  What the document's Read of layer 8 answers, for every text and place.
-/
import Derived.Test.YtpdmnnfbdeiejaaDoorAttAdd
namespace Go.Proofs.YtpdmnnfbdeiejaaDoor
open Go.RowKit Go.Lib

theorem at_more {s : ByteArray} {i : Nat} (h : i < s.size) {a a' : At} {T : Option Told} (hg : goA a s[i] (s.data.toList.drop (i + 1)) = .more a') (hT : runI i a (s.data.toList.drop i) = T) : runI (i + 1) a' (s.data.toList.drop (i + 1)) = T := by
  rw [drop_at s i h] at hT; exact runI_more hg hT
theorem at_done {s : ByteArray} {i : Nat} (h : i < s.size) {a : At} {l : List Ln} {self : Bool} {n : Nat} {T : Option Told} (hg : goA a s[i] (s.data.toList.drop (i + 1)) = .done l self n) (hT : runI i a (s.data.toList.drop i) = T) : T = some (l, self, i + n) := by
  rw [drop_at s i h] at hT; exact runI_done hg hT
theorem at_same {s : ByteArray} {i : Nat} (h : i < s.size) {a b : At} {T : Option Told} (hg : goA a s[i] (s.data.toList.drop (i + 1)) = goA b s[i] (s.data.toList.drop (i + 1))) (hT : runI i a (s.data.toList.drop i) = T) : runI i b (s.data.toList.drop i) = T := by
  rw [drop_at s i h] at hT ⊢; exact runI_same hg hT
theorem at_end {s : ByteArray} {i : Nat} (h : ¬ i < s.size) {a : At} {T : Option Told} (hT : runI i a (s.data.toList.drop i) = T) : T = none := by
  rw [List.drop_eq_nil_of_le (by rw [← Lib.size_eq]; omega)] at hT; exact runI_nil hT
theorem head_next (s : ByteArray) (i : Nat) : (s.data.toList.drop (i + 1)).head? = if h : i + 1 < s.size then some s[i + 1] else none := by
  by_cases h : i + 1 < s.size
  · rw [dif_pos h, drop_at s (i + 1) h]; rfl
  · rw [dif_neg h, List.drop_eq_nil_of_le (by rw [← Lib.size_eq]; omega)]; rfl
theorem add_one (s : ByteArray) (i : Nat) (h : i < s.size) (N : ByteArray) : (N ++ s.extract i (i + 1)).data.toList = N.data.toList ++ [s[i]] := by
  rw [ByteArray.data_append, Array.toList_append, extract_one s i h]
theorem results_tmp4 {fn : Func} {t u v x : Tmp} (h : fn.results = #[.tmp t, .tmp u, .tmp v, .tmp x]) (tmps : Array Value) (P : Program) (w : World) :
    (results fn tmps).run P w = .ok (.tuple #[tmps.getD t undef, tmps.getD u undef, tmps.getD v undef, tmps.getD x undef]) w := by
  simp [results, h]
theorem isRows_none (w : World) : IsRows w none 0 0 [] := ⟨rfl, Nat.le_refl _, by simp [maxLen], fun i h => by cases h⟩
/-- what Read answers: attributes, whether the tag closes itself, where it ends, whether it does -/
def TellP (s : ByteArray) (a : Int) (w : World) (e : Ending) (w' : World) : Prop :=
  ∃ ad len cap l self n ok, e = .returned (.tuple #[.slice ad len cap, .bool self, .int .i64 n, .bool ok]) ∧ IsRows w' ad len cap l ∧ attrsV s.data.toList a = (l, self, n, ok) ∧ Below w.heap.size w w'
/-- how far a state is from one that takes a byte -/
def rankI (k : Int) : Nat := if k = 1 ∨ k = 3 then 2 else if k = 2 ∨ k = 5 then 1 else 0

end Go.Proofs.YtpdmnnfbdeiejaaDoor
