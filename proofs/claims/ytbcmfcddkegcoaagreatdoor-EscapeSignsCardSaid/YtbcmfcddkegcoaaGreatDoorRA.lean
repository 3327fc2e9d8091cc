/-
  Texts laid together: RenMath, RenRef, TokO, RenDo.
-/
import Derived.Test.YtbcmfcddkegcoaaGreatDoorKA
import Derived.Test.YtbcmfcddkegcoaaGreatDoorFA
import Derived.Test.YtbcmfcddkegcoaaGreatDoorPT
import Derived.Test.YtbcmfcddkegcoaaGreatDoorQI
import Derived.Deep.RegionLaw
/-! What pieces say as plain text: plain mathematics. -/
namespace Go.Proofs.YtbcmfcddkegcoaaGreatDoor
open Go.RowKit Go.Lib

/-- which names are open, how often blanks are kept, what is told -/
structure RenP where
  opn : List Txt
  kept : Nat
  flow : FloP
def ren0 : RenP := ⟨[], 0, flo0⟩
def headL : Txt := [104, 101, 97, 100]
def bodyL : Txt := [98, 111, 100, 121]
def brL : Txt := [98, 114]
/-- the lines' ends about a tag -/
def brF (nm : Txt) (f : FloP) : FloP := if nm = brL then lineF f else f
def linesF (nm : Txt) (f : FloP) : FloP := if 0 < linN nm then brkF (linN nm) (brF nm f) else brF nm f
/-- where a name is last in a list -/
def lastN : List Txt → Txt → Option Nat
  | [], _ => none
  | x :: l, nm => match lastN l nm with | some k => some (k + 1) | none => if x = nm then some 0 else none
/-- what is open when a start tag is looked at -/
def openS (r : RenP) (nm : Txt) : List Txt := if nm = bodyL then r.opn.filter (fun n => decide (n ≠ headL)) else r.opn
def oneIf (b : Bool) : Nat := if b = true then 1 else 0
/-- P19.1: a piece -/
def renT (r : RenP) (t : TokP) : RenP :=
  if t.kind = 1 then
    (if hidN t.name = true then ⟨openS r t.name ++ [t.name], r.kept, r.flow⟩
     else if openS r t.name = [] then ⟨[], r.kept + oneIf (keeN t.name), linesF t.name r.flow⟩
     else ⟨openS r t.name, r.kept, r.flow⟩)
  else if t.kind = 2 then
    (match lastN r.opn t.name with
     | some k => ⟨r.opn.take k, r.kept, r.flow⟩
     | none => if r.opn = [] then ⟨[], r.kept - oneIf (keeN t.name), linesF t.name r.flow⟩ else r)
  else if t.kind = 0 ∧ r.opn = [] then ⟨[], r.kept, putL (decide (0 < r.kept)) r.flow t.text⟩
  else r
def renR (r : RenP) (L : List TokP) : RenP := L.foldl renT r
def renL (L : List TokP) : Txt := (renR ren0 L).flow.told

theorem renR_nil (r : RenP) : renR r [] = r := rfl
theorem renR_cons (r : RenP) (t : TokP) (L : List TokP) : renR r (t :: L) = renR (renT r t) L := rfl
theorem renR_app (r : RenP) (L M : List TokP) : renR r (L ++ M) = renR (renR r L) M := List.foldl_append
theorem renT_start (r : RenP) (t : TokP) (h : t.kind = 1) : renT r t = (if hidN t.name = true then ⟨openS r t.name ++ [t.name], r.kept, r.flow⟩ else if openS r t.name = [] then ⟨[], r.kept + oneIf (keeN t.name), linesF t.name r.flow⟩ else ⟨openS r t.name, r.kept, r.flow⟩) := by
  unfold renT; rw [if_pos h]
theorem renT_end (r : RenP) (t : TokP) (h : t.kind = 2) : renT r t = (match lastN r.opn t.name with | some k => ⟨r.opn.take k, r.kept, r.flow⟩ | none => if r.opn = [] then ⟨[], r.kept - oneIf (keeN t.name), linesF t.name r.flow⟩ else r) := by
  unfold renT; rw [if_neg (by rw [h]; decide), if_pos h]
theorem renT_text (r : RenP) (t : TokP) (h : t.kind = 0) : renT r t = (if r.opn = [] then ⟨[], r.kept, putL (decide (0 < r.kept)) r.flow t.text⟩ else r) := by
  unfold renT
  rw [if_neg (by rw [h]; decide), if_neg (by rw [h]; decide)]
  by_cases ho : r.opn = []
  · rw [if_pos ⟨h, ho⟩, if_pos ho]
  · rw [if_neg (fun e => ho e.2), if_neg ho]
theorem renT_other (r : RenP) (t : TokP) (h0 : t.kind ≠ 0) (h1 : t.kind ≠ 1) (h2 : t.kind ≠ 2) : renT r t = r := by
  unfold renT
  rw [if_neg h1, if_neg h2, if_neg (fun e => h0 e.1)]
/-! what each step of a flow keeps -/
theorem Keeps.lines {M : FloP → Prop} (h : Keeps M) (nm : Txt) (f : FloP) (hf : M f) : M (linesF nm f) := by
  have hb : M (brF nm f) := by
    unfold brF
    split
    · exact h.line _ hf
    · exact hf
  unfold linesF
  split
  · exact h.brk _ _ hb
  · exact hb
theorem Keeps.ren {M : FloP → Prop} (h : Keeps M) (r : RenP) (t : TokP) (hm : M r.flow) : M (renT r t).flow := by
  unfold renT
  split
  · split
    · exact hm
    · split
      · exact h.lines _ _ hm
      · exact hm
  · split
    · split
      · exact hm
      · split
        · exact h.lines _ _ hm
        · exact hm
    · split
      · exact h.put _ _ _ hm
      · exact hm
theorem Keeps.renR {M : FloP → Prop} (h : Keeps M) : ∀ (L : List TokP) (r : RenP), M r.flow → M (renR r L).flow
  | [], _, hm => hm
  | t :: L, r, hm => h.renR L _ (h.ren r t hm)
theorem lines_grow (nm : Txt) (f : FloP) : (linesF nm f).size ≤ f.size + 101 := by
  have h1 := line_size f
  have hb : (brF nm f).size ≤ f.size + 1 := by unfold brF; split <;> omega
  have h2 := brk_size (linN nm) (brF nm f)
  unfold linesF
  split <;> omega
theorem renT_grow (r : RenP) (t : TokP) : (renT r t).flow.size ≤ r.flow.size + t.text.length + 101 := by
  have h1 := lines_grow t.name r.flow
  have h2 := putL_size (decide (0 < r.kept)) t.text r.flow
  unfold renT
  split
  · split
    · simp only; omega
    · split
      · simp only; omega
      · simp only; omega
  · split
    · split
      · simp only; omega
      · split
        · simp only; omega
        · omega
    · split
      · simp only; omega
      · omega
/-! what plays no part: RenderParts -/
/-! what is hidden: RenderHides -/
theorem last_none (nm : Txt) : ∀ l : List Txt, nm ∉ l → lastN l nm = none
  | [], _ => rfl
  | x :: l, h => by
    unfold lastN
    rw [last_none nm l (fun e => h (.tail _ e)), if_neg (fun e => h (by rw [e]; exact .head _))]
theorem last_app (nm : Txt) (a l : List Txt) (k : Nat) (h : lastN l nm = some k) : lastN (a ++ l) nm = some (a.length + k) := by
  induction a with
  | nil => rw [List.nil_append, h, List.length_nil, Nat.zero_add]
  | cons x a ih =>
    show lastN (x :: (a ++ l)) nm = _
    unfold lastN
    rw [ih, List.length_cons]
    simp only [Option.some.injEq]
    omega
theorem last_some (nm : Txt) : ∀ (l : List Txt) (k : Nat), lastN l nm = some k → ∃ h : k < l.length, l[k] = nm
  | [], k, h => by cases h
  | x :: l, k, h => by
    unfold lastN at h
    cases h1 : lastN l nm with
    | some j =>
      rw [h1] at h
      obtain ⟨h2, h3⟩ := last_some nm l j h1
      have : j + 1 = k := by simpa using h
      subst this
      exact ⟨by rw [List.length_cons]; omega, h3⟩
    | none =>
      rw [h1] at h
      simp only at h
      split at h
      · rename_i hx
        have : 0 = k := by simpa using h
        subst this
        exact ⟨by rw [List.length_cons]; omega, hx⟩
      · cases h
theorem last_mem (nm : Txt) (l : List Txt) : lastN l nm = none ↔ nm ∉ l := by
  refine ⟨fun h e => ?_, last_none nm l⟩
  obtain ⟨a, b, rfl⟩ := List.append_of_mem e
  have : ∀ b : List Txt, lastN (nm :: b) nm ≠ none := fun b h => by
    unfold lastN at h
    split at h
    · cases h
    · rw [if_pos rfl] at h; cases h
  cases hb : lastN (nm :: b) nm with
  | none => exact this b hb
  | some k => rw [last_app nm a _ k hb] at h; cases h
/-- all that is open hides -/
def OpenOk (r : RenP) : Prop := ∀ n ∈ r.opn, hidN n = true
theorem open_ok (r : RenP) (t : TokP) (h : OpenOk r) : OpenOk (renT r t) := by
  have hs : ∀ n ∈ openS r t.name, hidN n = true := fun n hn => by
    unfold openS at hn
    split at hn
    · exact h n (List.mem_filter.1 hn).1
    · exact h n hn
  unfold renT
  split
  · split
    · rename_i hh
      intro n hn
      rcases List.mem_append.1 hn with hn | hn
      · exact hs n hn
      · rw [List.mem_singleton.1 hn]; exact hh
    · split
      · intro n hn; cases hn
      · exact hs
  · split
    · split
      · exact fun n hn => h n (List.mem_of_mem_take hn)
      · split
        · intro n hn; cases hn
        · exact h
    · split
      · intro n hn; cases hn
      · exact h
/-! about a block lines end: RenderLines -/
/-! where blanks are kept they stay: RenderKeeps -/
theorem lines_told (nm : Txt) (f : FloP) : (linesF nm f).told = f.told := by
  have hb : (brF nm f).told = f.told := by unfold brF; split <;> rfl
  unfold linesF
  split
  · exact hb
  · exact hb
end Go.Proofs.YtbcmfcddkegcoaaGreatDoor

/-! What the document's lines, last and without of layer 19 answer. -/
namespace Go.Proofs.YtbcmfcddkegcoaaGreatDoor
open Go.RowKit Go.Lib

theorem txt_beqB (A : Txt) (nm : ByteArray) : ((⟨A.toArray⟩ : ByteArray).toList == nm.toList) = decide (A = nm.data.toList) := by
  rw [str_beq, List.toList_toArray]

end Go.Proofs.YtbcmfcddkegcoaaGreatDoor

/-! A row of tokens as an object of its own, and what reads as a list of tokens, but for their attributes. -/
namespace Go.Proofs.YtbcmfcddkegcoaaGreatDoor
open Go.RowKit Go.Lib

/-- a slice that reads as a list of tokens, whatever their attributes are -/
def IsBare (w : World) (a : Option Addr) (len cap : Nat) (L : List TokP) : Prop :=
  L.length = len ∧ len ≤ cap ∧ cap ≤ maxLen ∧ ∀ i (h : i < L.length), ∃ x ad ln cp, a = some x ∧ TokCells w x i ⟨L[i], ad, ln, cp⟩
theorem IsToks.bare {w : World} {a : Option Addr} {len cap : Nat} {L : List TokP} (h : IsToks w a len cap L) : IsBare w a len cap L :=
  ⟨h.1, h.2.1, h.2.2.1, fun i hi => by
    obtain ⟨x, ad, ln, cp, h1, h2, -⟩ := h.2.2.2 i hi
    exact ⟨x, ad, ln, cp, h1, h2⟩⟩
theorem IsBare.below {w w' : World} {B : Nat} {a : Option Addr} {len cap : Nat} {L : List TokP} (h : IsBare w a len cap L) (hb : Below B w w') (hB : w.heap.size ≤ B) : IsBare w' a len cap L :=
  ⟨h.1, h.2.1, h.2.2.1, fun i hi => by
    obtain ⟨x, ad, ln, cp, h1, h2⟩ := h.2.2.2 i hi
    exact ⟨x, ad, ln, cp, h1, h2.below hb hB⟩⟩
end Go.Proofs.YtbcmfcddkegcoaaGreatDoor

/-! What the document's Render of layer 19 answers. -/
namespace Go.Proofs.YtbcmfcddkegcoaaGreatDoor
open Go.RowKit Go.Lib

end Go.Proofs.YtbcmfcddkegcoaaGreatDoor
