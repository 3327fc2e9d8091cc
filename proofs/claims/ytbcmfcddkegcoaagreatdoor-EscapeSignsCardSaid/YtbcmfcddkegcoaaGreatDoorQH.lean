/-
  Texts laid together: TkNext, TkJoin, TkRest, TkTok.
-/
import Derived.Test.YtbcmfcddkegcoaaGreatDoorQB
import Derived.Test.YtbcmfcddkegcoaaGreatDoorQC
import Derived.Test.YtbcmfcddkegcoaaGreatDoorQD
import Derived.Test.YtbcmfcddkegcoaaGreatDoorP1
import Derived.OwnWalk
import Derived.Laws.AppendOwn
import Derived.Laws.OwnMore
import Derived.Test.YtbcmfcddkegcoaaGreatDoorP4
/-! What the document's Next of layer 15 answers. -/
namespace Go.Proofs.YtbcmfcddkegcoaaGreatDoor
open Go.RowKit Go.Lib

theorem isRows_keep {w w' : World} {ad : Option Addr} {len cap : Nat} {l : List Ln} {g : Nat} (h : IsRows w ad len cap l) (hg : w.grownBy w' (some g)) (hne : l = [] ∨ ∀ k, (Value.slice ad len cap).ownBlock = some k → k ≠ g) : IsRows w' ad len cap l := by
  rcases hne with h0 | h0
  · rw [h0] at h ⊢
    exact ⟨h.1, h.2.1, h.2.2.1, fun i hi => by cases hi⟩
  · exact isRows_grown h hg h0
theorem fresh_keep {l : List Ln} {v : Value} {a b g : Nat} (h : l = [] ∨ ∀ k, v.ownBlock = some k → a ≤ k) (hab : b ≤ a) (hg : g < a) : (l = [] ∨ ∀ k, v.ownBlock = some k → b ≤ k) ∧ (l = [] ∨ ∀ k, v.ownBlock = some k → k ≠ g) := by
  rcases h with h | h
  · exact ⟨.inl h, .inl h⟩
  · exact ⟨.inr fun k hk => by have := h k hk; omega, .inr fun k hk => by have := h k hk; omega⟩

end Go.Proofs.YtbcmfcddkegcoaaGreatDoor

/-! What the document's Join of layer 15 answers. -/
namespace Go.Proofs.YtbcmfcddkegcoaaGreatDoor
open Go.RowKit Go.Lib

theorem app_text (S X : ByteArray) : (S ++ X).data.toList = S.data.toList ++ X.data.toList := by rw [ByteArray.data_append, Array.toList_append]
theorem drop_tok (L : List TokP) (i : Nat) (h : i < L.length) : L.drop i = L[i] :: L.drop (i + 1) := (List.getElem_cons_drop h).symm
/-- what holds at each round -/
def JoinI (w wr : World) (v : Value) (O : List TkV) (S : ByteArray) (i : Nat) (L : List TokP) : Prop :=
  OwnToks wr w.heap.size v O ∧ Below w.heap.size w wr ∧ O.map TkV.t ++ joinA S.data.toList (L.drop i) = joinL L
theorem JoinI.more {w wr : World} {v : Value} {O : List TkV} {S : ByteArray} {i : Nat} {L : List TokP} (h : JoinI w wr v O S i L) (hi : i < L.length) (hk : L[i].kind = 0) (X : ByteArray) (hX : X.data.toList = L[i].text) : JoinI w wr v O (S ++ X) (i + 1) L := by
  obtain ⟨h1, h2, h3⟩ := h
  refine ⟨h1, h2, ?_⟩
  rw [drop_tok L i hi, joinA, if_pos hk] at h3
  rw [app_text, hX]; exact h3
theorem JoinI.empty {w wr : World} {v : Value} {O : List TkV} {S : ByteArray} {i : Nat} {L : List TokP} (h : JoinI w wr v O S i L) (hS : S.size = 0) : JoinI w wr v O ⟨#[]⟩ i L := by
  obtain ⟨h1, h2, h3⟩ := h
  have : S.data.toList = [] := List.eq_nil_of_length_eq_zero (by rw [← Lib.size_eq]; exact hS)
  rw [this] at h3
  exact ⟨h1, h2, h3⟩
theorem JoinI.mark {w wr w1 : World} {v v1 : Value} {O : List TkV} {S : ByteArray} {i : Nat} {L : List TokP} (h : JoinI w wr v O S i L) (hS : S.size = 0) (hi : i < L.length) (hk : L[i].kind ≠ 0) (ad : Option Addr) (ln cp : Nat) (hq : AttOk wr v ⟨L[i], ad, ln, cp⟩) (o : Obj)
    (hown : w1.ownsRow w.heap.size 31 5 v1 (O.length + 1) (cellsT O ++ cellsT [⟨L[i], ad, ln, cp⟩])) (hg : (wr.alloc o).grownBy w1 v.ownBlock) (hw : v1.ownBlock = v.ownBlock ∨ v1.ownBlock = some (wr.heap.size + 1)) :
    JoinI w w1 v1 (O ++ [⟨L[i], ad, ln, cp⟩]) S (i + 1) L := by
  obtain ⟨h1, h2, h3⟩ := h
  have he : S.data.toList = [] := List.eq_nil_of_length_eq_zero (by rw [← Lib.size_eq]; exact hS)
  refine ⟨(h1.alloc o).app (R := [⟨L[i], ad, ln, cp⟩]) (fun q hq' => by
    simp only [List.mem_cons, List.not_mem_nil, or_false] at hq'
    subst hq'
    exact ⟨hq.1.below ((Below.refl _ wr).alloc (Nat.le_refl _) o) (Nat.le_refl _), hq.2⟩) hown hg (by simpa using hw), ?_, ?_⟩
  · exact (h2.alloc h2.size o).grown hg (by simp; have := h2.size; omega) (fun k hk => (h1.lt k hk).1)
  · rw [drop_tok L i hi, joinA, if_neg hk, he] at h3
    rw [he, List.map_append, List.append_assoc]; exact h3
/-- the attributes of a token in old memory don't lie in a row of the call's own -/
theorem attOk_old {w wr : World} {v : Value} {O : List TkV} {q : TkV} (hr : IsRows w q.ad q.len q.cap q.t.attrs) (hb : Below w.heap.size w wr) (ho : OwnToks wr w.heap.size v O) : AttOk wr v q := by
  refine ⟨hr.below hb (Nat.le_refl _), ?_⟩
  by_cases he : q.t.attrs = []
  · exact .inl he
  · refine .inr fun k hk e => ?_
    obtain ⟨x, hx, c1, -⟩ := hr.2.2.2 0 (List.length_pos_iff.2 he)
    have hlt := block_lt_of_cell c1
    rw [show (x.add (0 * 2)).block = x.block by unfold Addr.add; split <;> rfl] at hlt
    rw [hx] at hk
    have h1 : x.block = k := by simpa [Value.ownBlock] using hk
    have := (ho.lt k e).1
    omega

end Go.Proofs.YtbcmfcddkegcoaaGreatDoor

/-! What the document's Rest of layer 15 answers. -/
namespace Go.Proofs.YtbcmfcddkegcoaaGreatDoor
open Go.RowKit Go.Lib

theorem not_empty (X : Txt) (h : X ≠ []) : ¬ (⟨X.toArray⟩ : ByteArray).toList = [] ∧ (⟨X.toArray⟩ : ByteArray).toList.isEmpty = false ∧ X.isEmpty = false := by
  have e : (⟨X.toArray⟩ : ByteArray).toList = X := by rw [ByteArray.toList_eq, List.toList_toArray]
  rw [e]
  have h2 : X.isEmpty = false := by
    cases X with
    | nil => exact absurd rfl h
    | cons c l => rfl
  exact ⟨h, h2, h2⟩

end Go.Proofs.YtbcmfcddkegcoaaGreatDoor

/-! What the document's Tok of layer 15 answers. -/
namespace Go.Proofs.YtbcmfcddkegcoaaGreatDoor
open Go.RowKit Go.Lib

end Go.Proofs.YtbcmfcddkegcoaaGreatDoor
