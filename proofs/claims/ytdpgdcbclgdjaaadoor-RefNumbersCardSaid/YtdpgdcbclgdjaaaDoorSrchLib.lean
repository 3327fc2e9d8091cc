/-
  What strings.Clone and strings.Cut (at one byte) answer at this program.
-/
import Derived.Test.YtdpgdcbclgdjaaaDoorShelf
import Derived.Test.YtdpgdcbclgdjaaaDoorSmall
import Derived.Lib.IndexLaws
import Derived.Deep.Draws
import Derived.Below
import Derived.BigQuiet
namespace Go.Proofs.YtdpgdcbclgdjaaaDoor
open Go.RowKit Go.Lib

theorem indexByte_hit : ∀ (L : List UInt8) (c : UInt8) (z : List UInt8), c ∉ L → Lib.indexByte (L ++ c :: z) c = (L.length : Int)
  | [], c, z, _ => by simp [Lib.indexByte]
  | b :: L, c, z, h => by
    rw [List.mem_cons, not_or] at h
    have ih := indexByte_hit L c z h.2
    rw [List.cons_append, Lib.indexByte, if_neg (by simpa using fun e => h.1 e.symm), ih]
    rw [if_neg (by simp)]
    simp
theorem indexByte_miss : ∀ (L : List UInt8) (c : UInt8), c ∉ L → Lib.indexByte L c = -1
  | [], c, _ => rfl
  | b :: L, c, h => by
    rw [List.mem_cons, not_or] at h
    have ih := indexByte_miss L c h.2
    rw [Lib.indexByte, if_neg (by simpa using fun e => h.1 e.symm), ih]
    rfl

set_option maxRecDepth 100000 in
set_option maxHeartbeats 1000000 in
theorem clone_any (s : ByteArray) (w : World) (hs : s.size ≤ 1099511627776) :
    Calls Tryd.prog 23 #[.string s] w fun e w' => e = .returned (.string s) ∧ Below w.heap.size w w' := by
  go_enter Tryd.func23, Tryd.ntmps23
  go_wp2_with (go_at_call 43; refine (Tryd.stringslite_Clone s _ (by omega)).mono ?_)
  rintro e w1 ⟨rfl, b1⟩
  go_wp2
  go_ret
  exact ⟨rfl, b1⟩

/-- the three things that are told -/
def cutV (L rest : List UInt8) : Value := .tuple #[.string ⟨L.toArray⟩, .string ⟨rest.tail.toArray⟩, .bool (!rest.isEmpty)]

set_option maxRecDepth 100000 in
set_option maxHeartbeats 1000000 in
theorem liteCut (s : ByteArray) (c : UInt8) (L rest : List UInt8) (w : World) (hs : s.size ≤ 1099511627776) (he : s.data.toList = L ++ rest) (hc : c ∉ L) (hr : rest = [] ∨ ∃ z, rest = c :: z) :
    Calls Tryd.prog 50 #[.string s, .string ⟨#[c]⟩] w fun e w' => e = .returned (cutV L rest) ∧ ∃ n, w' = w.drewN n := by
  have hsl : s.size = L.length + rest.length := by rw [Lib.size_eq, he, List.length_append]
  rcases hr with rfl | ⟨z, rfl⟩
  · have hx := Lib.hid (show Lib.indexByte s.data.toList c = -1 by rw [he, List.append_nil]; exact indexByte_miss L c hc)
    have HS := Lib.hid (show (⟨L.toArray⟩ : ByteArray) = s from str_ext (by rw [he]; simp))
    clear he hsl
    go_enter Tryd.func50, Tryd.ntmps50
    go_wp2_with (go_at_call 60; refine (Tryd.stringslite_Index_one s c _).mono ?_; rintro e w' ⟨rfl, rfl⟩; rw [hx.out])
    go_ret3
    refine ⟨?_, 0, rfl⟩
    unfold cutV
    rw [HS.out]; rfl
  · have hx := Lib.hid (show Lib.indexByte s.data.toList c = (L.length : Int) by rw [he]; exact indexByte_hit L c z hc)
    have hl2 : L.length + 1 ≤ s.size := by rw [hsl]; simp
    have HA := Lib.hid (show s.extract 0 L.length = ⟨L.toArray⟩ from str_ext (by rw [extract_data, he]; simp))
    have HB := Lib.hid (show s.extract (L.length + 1) s.size = ⟨z.toArray⟩ from str_ext (by
      have e : (L ++ c :: z).drop (L.length + 1) = z := by simp
      rw [List.length_cons] at hsl
      rw [extract_data, he, e, List.take_of_length_le (by omega)]))
    clear he hsl
    obtain ⟨l, hl⟩ : ∃ l, l = L.length := ⟨_, rfl⟩
    rw [← hl] at hx hl2 HA HB
    clear hl
    have HI := fun w => Lib.hid (Tryd.stringslite_Index_one s c w)
    obtain ⟨sep, hsep, hs1⟩ : ∃ sep : ByteArray, sep = ⟨#[c]⟩ ∧ sep.size = 1 := ⟨_, rfl, rfl⟩
    rw [← hsep] at HI ⊢
    clear hsep
    rw [← hs1] at hl2 HB
    have hs1' := Lib.hid hs1
    clear hs1
    have c1 : (0 : Int) ≤ (l : Int) := by omega
    have c2 : (l : Int) ≤ (s.size : Int) := by omega
    have c3 : (0 : Int) ≤ (l : Int) + (sep.size : Int) := by omega
    have c4 : (l : Int) + (sep.size : Int) ≤ (s.size : Int) := by omega
    have c5 : IntKind.i64.wrap ((l : Int) + (sep.size : Int)) = (l : Int) + (sep.size : Int) := by rw [IntKind.wrap_i64]; omega
    have c6 : ((l : Int) + (sep.size : Int)).toNat = l + sep.size := by omega
    go_enter Tryd.func50, Tryd.ntmps50
    go_wp2_with (go_at_call 60; refine ((HI _).out).mono ?_; rintro e w' ⟨rfl, rfl⟩; rw [hx.out])
    go_quiet (fail)
    go_wp2
    go_ret3
    refine ⟨?_, _, rfl⟩
    unfold cutV
    first | (rw [HA.out, HB.out]; rfl) | trace_state

set_option maxRecDepth 100000 in
set_option maxHeartbeats 1000000 in
theorem cut_any (s : ByteArray) (c : UInt8) (L rest : List UInt8) (w : World) (hs : s.size ≤ 1099511627776) (he : s.data.toList = L ++ rest) (hc : c ∉ L) (hr : rest = [] ∨ ∃ z, rest = c :: z) :
    Calls Tryd.prog 31 #[.string s, .string ⟨#[c]⟩] w fun e w' => e = .returned (cutV L rest) ∧ ∃ n, w' = w.drewN n := by
  have HC := Lib.hid (fun w => liteCut s c L rest w hs he hc hr)
  clear he hc hr
  unfold cutV at *
  go_enter Tryd.func31, Tryd.ntmps31
  go_wp2_with (go_at_call 50; refine (HC.out _).mono ?_)
  rintro e w1 ⟨rfl, n, rfl⟩
  go_wp2
  go_ret3
  exact ⟨rfl, n, rfl⟩

end Go.Proofs.YtdpgdcbclgdjaaaDoor
