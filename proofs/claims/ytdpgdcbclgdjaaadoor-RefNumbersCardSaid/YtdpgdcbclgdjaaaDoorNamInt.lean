/-
  What strconv.ParseInt answers for digits with sixteen digits, and for no text at all; what package names' number does.
-/
import Derived.Test.YtdpgdcbclgdjaaaDoorNamMath
import Derived.Test.YtdpgdcbclgdjaaaDoorShelf
import Derived.Lib.ConvBytes
import Derived.Lib.AtoiErrMem
import Derived.Laws.Strings3
import Derived.Laws.Closers25
import Derived.Laws.Closers25b
import Derived.Lib.OthersKept
import Derived.BigCall
import Derived.BigGuard
namespace Go.Proofs.YtdpgdcbclgdjaaaDoor
open Go.RowKit Go.Lib

theorem or32 (q : Int) (h0 : 65 ≤ q) (h1 : q ≤ 70) : bits .or .u8 q 32 = q + 32 := by
  have : q = 65 ∨ q = 66 ∨ q = 67 ∨ q = 68 ∨ q = 69 ∨ q = 70 := by omega
  rcases this with rfl | rfl | rfl | rfl | rfl | rfl <;> decide
theorem take_suc (l : Txt) (k : Nat) (h : k < l.length) : hexN (l.take (k + 1)) = 16 * hexN (l.take k) + (hexI (l[k].toNat : Int)).toNat := by
  rw [List.take_succ_eq_append_getElem h, hexN_snoc]

set_option maxHeartbeats 8000000 in
set_option maxRecDepth 100000 in
theorem uint16 (t : ByteArray) (w : World) (hne : t.size ≠ 0) (hl : t.size ≤ 5) (hx : ∀ c ∈ t.data.toList, hexB c = true) :
    Calls Tryd.prog 69 #[.string t, .int .i64 16, .int .i64 64] w fun e w' => e = .returned (.tuple #[.int .u64 (hexN t.data.toList : Int), .nilIface]) ∧ w' = Lib.bytesWorld w 5 t := by
  have hemp : t.toList.isEmpty = false := by
    rw [ByteArray.toList_eq]
    cases h : t.data.toList with
    | nil => exact absurd (by rw [Lib.size_eq, h]; rfl) hne
    | cons => rfl
  have hcv := Lib.run_convert_string_bytes (P := Tryd.prog) w 9 30 5 t (u := .string) Tryd.underlying9 Tryd.underlying30 Tryd.underlying5
  have hB : ∀ j, j < t.size → (Lib.bytesWorld w 5 t).cell? ⟨w.heap.size, j, none⟩ = some (.int .u8 (t.data.toList.getD j 0).toNat) := fun j hj => Lib.bytesWorld_cell w 5 t j hj
  obtain ⟨W1, hW1⟩ : ∃ W1, W1 = Lib.bytesWorld w 5 t := ⟨_, rfl⟩
  rw [← hW1] at hcv hB ⊢
  clear hW1
  obtain ⟨bs, hL⟩ : ∃ bs, bs = t.data.toList := ⟨_, rfl⟩
  have hLn : bs.length = t.size := by rw [hL, Lib.size_eq]
  rw [← hL] at hB hx ⊢
  clear hL
  obtain ⟨V, hV⟩ : ∃ V : Int, (hexN bs : Int) = V := ⟨_, rfl⟩
  rw [hV]
  have HV := Lib.hid hV
  have HX := Lib.hid hx
  clear hV hx
  have hmv : IntKind.u64.wrap (IntKind.u64.wrap 18446744073709551616 - 1) = 18446744073709551615 := by
    rw [IntKind.wrap_u64, IntKind.wrap_u64]
    decide
  go_enter Tryd.func69, Tryd.ntmps69
  go_wp2
  go_loopw [12, 13, 101] (fun vu vn vi wr => ∃ (k : Nat) (a : Int), vu = .bool false ∧ vn = .int .u64 a ∧ vi = .int .i64 k ∧ k ≤ t.size ∧ Hid (a = (hexN (bs.take k) : Int)) ∧ W1 = wr)
    (fun _ _ vi _ => t.size - (intOf vi).toNat)
  case atStart => exact ⟨0, 0, rfl, rfl, rfl, by omega, Lib.hid (by simp [hexN_nil]), rfl⟩
  case round =>
    obtain ⟨k, a, rfl, rfl, rfl, hk, hh, rfl⟩ := hrel
    have ha := hexN_lt (bs.take k) (fun c hc => HX.out c (List.mem_of_mem_take hc)) (by rw [List.length_take]; omega)
    have a0 : 0 ≤ a := by have := hh.out; omega
    have a1 : a < 1048576 := by have := hh.out; omega
    clear ha
    by_cases hkn : k < t.size
    · have hc := hB k hkn
      have hkl : k < bs.length := by omega
      have hget : bs.getD k 0 = bs[k] := by simp [List.getD, List.getElem?_eq_getElem hkl]
      rw [hget] at hc
      have hs := take_suc bs k hkl
      have hm := HX.out bs[k] (List.getElem_mem _)
      generalize bs[k] = c at hc hs hm
      have hc256 : c.toNat < 256 := c.toNat_lt
      obtain ⟨q1, q2, -, -, q3⟩ := hexB_int c hm
      clear hB hget hm
      have icut : a < 1152921504606846976 := by omega
      rcases q3 with ⟨d0, d1, d2⟩ | ⟨d0, d1, d2⟩
      · have HN : Hid (a * 16 + ((c.toNat : Int) - 48) = (hexN (bs.take (k + 1)) : Int)) := Lib.hid (by rw [hs, d2]; have := hh.out; omega)
        have iov : a * 16 + ((c.toNat : Int) - 48) < 18446744073709551616 := by omega
        clear hs q1 q2 d2
        go_wp2
        go_roundw
        case rel => exact ⟨k + 1, a * 16 + ((c.toNat : Int) - 48), rfl, (by first | rfl | (congr 1; omega)), (by first | rfl | (congr 1; omega)), by omega, HN, trivial⟩
        case measure => simp [intOf]; omega
      · have HN : Hid (a * 16 + ((c.toNat : Int) - 55) = (hexN (bs.take (k + 1)) : Int)) := Lib.hid (by rw [hs, d2]; have := hh.out; omega)
        have iov : a * 16 + ((c.toNat : Int) - 55) < 18446744073709551616 := by omega
        have ho := Lib.hid (or32 (c.toNat : Int) (by omega) (by omega))
        clear hs q1 q2 d2
        go_wp2_with (go_at_call 76; refine (Tryd.internal_strconv_lower _ _).mono ?_; rintro e w' ⟨rfl, rfl⟩; rw [ho.out])
        go_roundw
        case rel => exact ⟨k + 1, a * 16 + ((c.toNat : Int) - 55), rfl, (by first | rfl | (congr 1; omega)), (by first | rfl | (congr 1; omega)), by omega, HN, trivial⟩
        case measure => simp [intOf]; omega
    · have hkk : k = t.size := by omega
      subst hkk
      obtain rfl : a = V := by
        have := hh.out
        rw [List.take_of_length_le (by omega)] at this
        rw [this, HV.out]
      go_wp2
      go_ret2
      exact ⟨rfl, rfl⟩

set_option maxHeartbeats 4000000 in
set_option maxRecDepth 100000 in
theorem int16 (t : ByteArray) (w : World) (hne : t.size ≠ 0) (hl : t.size ≤ 5) (hx : ∀ c ∈ t.data.toList, hexB c = true) :
    Calls Tryd.prog 62 #[.string t, .int .i64 16, .int .i64 64] w fun e w' => e = .returned (.tuple #[.int .i64 (hexN t.data.toList : Int), .nilIface]) ∧ w' = Lib.bytesWorld w 5 t := by
  have hemp : t.toList.isEmpty = false := by
    rw [ByteArray.toList_eq]
    cases h : t.data.toList with
    | nil => exact absurd (by rw [Lib.size_eq, h]; rfl) hne
    | cons => rfl
  have HC := fun w => Lib.hid (uint16 t w hne hl hx)
  have hv := hexN_lt t.data.toList hx (by rw [← Lib.size_eq]; exact hl)
  have h0 : 0 < t.size := by omega
  have hm := hx t[0] (by rw [show t[0] = t.data.toList[0]'(by rw [← Lib.size_eq]; exact h0) from (Array.getElem_toList _).symm]; exact List.getElem_mem _)
  obtain ⟨-, -, -, -, q3⟩ := hexB_int _ hm
  have n1 : ((t[0].toNat : Nat) : Int) ≠ 43 := by omega
  have n2 : ((t[0].toNat : Nat) : Int) ≠ 45 := by omega
  clear hm q3 hx
  obtain ⟨V, hV⟩ : ∃ V : Int, (hexN t.data.toList : Int) = V := ⟨_, rfl⟩
  have v0 : 0 ≤ V := by omega
  have v1 : V < 1048576 := by omega
  rw [hV] at HC ⊢
  clear hV hv
  go_enter Tryd.func62, Tryd.ntmps62
  go_wp2_with (go_at_call 69; refine (HC _).out.mono ?_; rintro e w' ⟨rfl, rfl⟩)
  go_ret2
  exact ⟨rfl, rfl⟩

/-- the variable that the library's error lies in -/
def ErrAt (w : World) : Prop := 2 < w.heap.size ∧ ∃ te pe, w.cell? ⟨2, 0, none⟩ = some (.iface te pe)
theorem ErrAt.below {w w' : World} (h : ErrAt w) (hb : Below w.heap.size w w') : ErrAt w' := by
  obtain ⟨h1, te, pe, h2⟩ := h
  refine ⟨Nat.lt_of_lt_of_le h1 hb.size, te, pe, ?_⟩
  rw [hb.cell (show (⟨2, 0, none⟩ : Addr).block < w.heap.size from h1), h2]

set_option maxHeartbeats 4000000 in
set_option maxRecDepth 100000 in
theorem number_any (l : Txt) (w : World) (hw : ErrAt w) (hl : l.length ≤ 5) (hx : ∀ c ∈ l, hexB c = true) :
    Calls Tryd.prog 44 #[strV l] w fun e w' => e = .returned (.float .f64 (fl (hexN l))) ∧ Below w.heap.size w w' := by
  unfold strV
  by_cases h0 : l = []
  · subst h0
    obtain ⟨h1, te, pe, h2⟩ := hw
    have HE := fun w => Lib.hid (Tryd.internal_strconv_ParseInt_empty 16 64 w)
    have HT := Lib.hid (Tryd.strconv_toError_syntax ⟨#[80, 97, 114, 115, 101, 73, 110, 116]⟩ ⟨#[]⟩ 16 64 _ w (by decide) h2 (.inr ⟨te, pe, rfl⟩))
    have hP : Calls Tryd.prog 57 #[.string ⟨#[]⟩, .int .i64 16, .int .i64 64] w fun e w' => (∃ v, e = .returned (.tuple #[.int .i64 0, v])) ∧ Below w.heap.size w w' := by
      clear h2
      go_enter Tryd.func57, Tryd.ntmps57
      go_wp2_with (first | (go_at_call 62; refine (HE _).out.mono ?_; rintro e w' ⟨rfl, rfl⟩) | (go_at_call 63; refine HT.out.mono ?_; rintro e w' ⟨N, rfl, -, -, b2⟩))
      go_ret2
      exact ⟨⟨_, rfl⟩, b2⟩
    have HP := Lib.hid hP
    have hf := fl_of 0
    clear hP h2 HE HT
    rw [hexN_nil]
    go_enter Tryd.func44, Tryd.ntmps44
    go_wp2_with (go_at_call 57; refine HP.out.mono ?_; rintro e w' ⟨⟨v, rfl⟩, b1⟩)
    go_ret
    exact ⟨rfl, b1⟩
  · have hsz : (⟨l.toArray⟩ : ByteArray).size = l.length := by rw [Lib.size_eq, List.toList_toArray]
    have hd : (⟨l.toArray⟩ : ByteArray).data.toList = l := List.toList_toArray
    have hpos := List.length_pos_iff.2 h0
    have HI := fun w => Lib.hid (int16 ⟨l.toArray⟩ w (by omega) (by omega) (by rw [hd]; exact hx))
    rw [hd] at HI
    have hb := fun w => Lib.bytesWorld_below w 5 ⟨l.toArray⟩
    generalize (⟨l.toArray⟩ : ByteArray) = t at *
    have hf := fl_of (hexN l)
    obtain ⟨V, hV⟩ : ∃ V, fl (hexN l) = V := ⟨_, rfl⟩
    obtain ⟨n, hn⟩ : ∃ n : Int, (hexN l : Int) = n := ⟨_, rfl⟩
    rw [hV]
    rw [hV, hn] at hf
    rw [hn] at HI
    clear hV hn hd hsz hx
    have hP : Calls Tryd.prog 57 #[.string t, .int .i64 16, .int .i64 64] w fun e w' => e = .returned (.tuple #[.int .i64 n, .nilIface]) ∧ w' = Lib.bytesWorld w 5 t := by
      clear hf
      go_enter Tryd.func57, Tryd.ntmps57
      go_wp2_with (go_at_call 62; refine (HI _).out.mono ?_; rintro e w' ⟨rfl, rfl⟩)
      go_ret2
      exact ⟨rfl, rfl⟩
    have HP := Lib.hid hP
    have HBB := Lib.hid (hb w)
    clear hP HI hb
    go_enter Tryd.func44, Tryd.ntmps44
    go_wp2_with (go_at_call 57; refine HP.out.mono ?_; rintro e w' ⟨rfl, rfl⟩)
    go_ret
    exact ⟨rfl, HBB.out⟩
end Go.Proofs.YtdpgdcbclgdjaaaDoor
