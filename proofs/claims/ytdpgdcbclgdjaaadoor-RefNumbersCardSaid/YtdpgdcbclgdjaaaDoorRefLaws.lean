/-
  Decode as a function from texts to texts; contracts for worlds in which both listed variables hold what the text lays.
-/
import Derived.Test.YtdpgdcbclgdjaaaDoorRefAwake
import Derived.Test.YtdpgdcbclgdjaaaDoorRefLaid
namespace Go.Proofs.YtdpgdcbclgdjaaaDoor
open Go.RowKit Go.Lib

def ddS (attr : Bool) (s : ByteArray) : ByteArray := ⟨(ddL attr s.data.toList).toArray⟩
theorem ddS_list (attr : Bool) (s : ByteArray) : (ddS attr s).data.toList = ddL attr s.data.toList := by simp [ddS]
theorem ddS_size (attr : Bool) (s : ByteArray) : (ddS attr s).size ≤ 3 * s.size := by
  rw [Lib.size_eq, Lib.size_eq, ddS_list]; exact dd_len attr _ _ (Nat.le_refl _)
theorem app_list (a b : ByteArray) : (a ++ b).data.toList = a.data.toList ++ b.data.toList := by rw [ByteArray.data_append, Array.toList_append]
theorem ddS_join (attr : Bool) (a b : ByteArray) : ddS attr (a ++ ⟨#[32]⟩ ++ b) = ddS attr a ++ ⟨#[32]⟩ ++ ddS attr b := str_ext (by
  rw [ddS_list, app_list, app_list, app_list, app_list, ddS_list, ddS_list, show (ByteArray.mk #[32]).data.toList = [32] from rfl, List.append_assoc, List.append_assoc]
  exact dd_join attr _ _ _ (Nat.le_refl _))
theorem ddS_stays (attr : Bool) (s : ByteArray) (h : 38 ∉ s.data.toList) : ddS attr s = s := str_ext (by rw [ddS_list, dd_stays attr _ h])
theorem ddS_amps (attr : Bool) (s t : ByteArray) (h : t.data.toList = ampL s.data.toList) : ddS attr t = s := str_ext (by rw [ddS_list, h, dd_amps])

theorem awakeL (w : World) (h : LaidAt w) :
    Calls Tryd.prog 9 #[] w fun e w' => e = .returned (.bool true) ∧ Below w.heap.size w w' := refAwake_any w h.tab h.err
theorem decL_s (s : ByteArray) (attr : Bool) (w : World) (hs : s.size ≤ 1099511627776) (h : LaidAt w) :
    Calls Tryd.prog 12 #[.string s, .bool attr] w fun e w' => e = .returned (.string (ddS attr s)) ∧ Below w.heap.size w w' := decode_any s attr w hs h.tab h.err
/-- Read where an ampersand stands -/
theorem readL_s (s : ByteArray) (k : Nat) (z : Txt) (attr : Bool) (w : World) (hs : s.size ≤ 1099511627776) (h38 : s.data.toList.drop k = 38 :: z) (h : LaidAt w) :
    Calls Tryd.prog 10 #[.string s, .int .i64 (k : Int), .bool attr] w fun e w' => e = .returned (.tuple #[.string ⟨(refT z attr).toArray⟩, .int .i64 ((k + 1 + refM z : Nat) : Int)]) ∧ Below w.heap.size w w' := by
  have hk : k < s.size := by
    refine Nat.lt_of_not_le fun hle => ?_
    rw [List.drop_eq_nil_of_le (by rw [← Lib.size_eq]; exact hle)] at h38
    exact absurd h38.symm (List.cons_ne_nil _ _)
  have e0 := drop_at s k hk
  rw [h38] at e0
  injection e0 with e1 e2
  have hg : s.data.toList.getD k 0 = 38 := by rw [getD_is s k hk]; exact e1.symm
  have h1 := rd_any s (k : Int) attr w hs (by omega) h.tab h.err
  obtain ⟨r1, r2⟩ := rd_yes s.data.toList k attr hg
  rw [r1, r2, ← e2, show (k : Int) + 1 + (refM z : Int) = ((k + 1 + refM z : Nat) : Int) by omega] at h1
  exact h1
/-- where a byte stands among digits and letters -/
theorem classes (a : Int) : (a < 48 ∧ a < 97 ∧ a < 65 ∧ a < 90 ∧ a < 97) ∨ (48 ≤ a ∧ a ≤ 57 ∧ a < 97 ∧ a < 65 ∧ a < 97) ∨ (48 ≤ a ∧ 57 < a ∧ a < 97 ∧ a < 65 ∧ a < 97) ∨ (48 ≤ a ∧ 57 < a ∧ a < 97 ∧ 65 ≤ a ∧ a ≤ 90) ∨ (48 ≤ a ∧ 57 < a ∧ a < 97 ∧ 65 ≤ a ∧ 90 < a) ∨ (48 ≤ a ∧ 57 < a ∧ 97 ≤ a ∧ a ≤ 122 ∧ 65 ≤ a) ∨ (48 ≤ a ∧ 57 < a ∧ 97 ≤ a ∧ 122 < a ∧ 90 < a) := by omega
end Go.Proofs.YtdpgdcbclgdjaaaDoor
