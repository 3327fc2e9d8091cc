/-
  Texts laid together: NamMath, NamInt, NamCode, NamFind, NamLast, NamRef, NamRefB, NamRefC, NamNth.
-/
import Derived.Test.YtbcmfcddkegcoaaGreatDoorNamRows
import Derived.Test.YtbcmfcddkegcoaaGreatDoorP1
import Derived.Test.YtbcmfcddkegcoaaGreatDoorP3
import Derived.Test.YtbcmfcddkegcoaaGreatDoorShelf
import Derived.Lib.ConvBytes
import Derived.Lib.AtoiErrMem
import Derived.Laws.Strings3
import Derived.Laws.Closers25
import Derived.Laws.Closers25b
import Derived.Lib.OthersKept
import Derived.BigCall
import Derived.BigGuard
import Derived.BigQuiet
/-! The table of names: what its rows are like, and what a name's value is: plain mathematics. -/
namespace Go.Proofs.YtbcmfcddkegcoaaGreatDoor
open Go.RowKit Go.Lib

theorem nm_flatN : flatN nmRows = nmT.data.toList ++ [10] := eqB_eq _ _ flat_all
theorem nm_flat : nmT.data.toList = flatL nmRows := by unfold flatL; rw [nm_flatN]; simp

/-- what each row is like -/
structure RowP (r : Ln) : Prop where
  ne : r.1 ≠ []
  len : r.1.length ≤ 32
  key : ∀ c ∈ r.1, c ≠ 32 ∧ c ≠ 10
  semi : ∀ c ∈ r.1.dropLast, c ≠ 59
  firNe : firL r.2 ≠ []
  firLen : (firL r.2).length ≤ 5
  firHex : ∀ c ∈ firL r.2, hexB c = true
  secLen : (secL r.2).length ≤ 5
  secHex : ∀ c ∈ secL r.2, hexB c = true
  form : r.2 = firL r.2 ∧ secL r.2 = [] ∨ r.2 = firL r.2 ++ 32 :: secL r.2 ∧ (∃ c ∈ secL r.2, c ≠ 48) ∧ 3 ≤ r.1.length
  firPos : ∃ c ∈ firL r.2, c ≠ 48

theorem rowB_P (r : Ln) (h : rowB r = true) : RowP r := by
  unfold rowB at h
  simp only [Bool.and_eq_true, Bool.or_eq_true, Bool.not_eq_true', List.all_eq_true, List.any_eq_true, Nat.ble_eq, List.isEmpty_eq_false_iff, List.isEmpty_iff, Bool.or_eq_false_iff, beq_eq_false_iff_ne, ne_eq] at h
  obtain ⟨⟨⟨⟨⟨⟨⟨h1, h2⟩, h3⟩, h4⟩, ⟨⟨h5, h6⟩, h7⟩⟩, ⟨h8, h9⟩⟩, h10⟩, h11⟩ := h
  refine ⟨h1, h2, h3, h4, h5, h6, h7, h8, h9, ?_, h11⟩
  rcases h10 with ⟨a, b⟩ | ⟨⟨a, b⟩, c⟩
  · exact .inl ⟨eqB_eq _ _ a, b⟩
  · exact .inr ⟨eqB_eq _ _ a, b, c⟩
theorem rise_pair : ∀ (k : Txt) (rs : List Ln), riseB k rs = true → (∀ r ∈ rs, k < r.1) ∧ rs.Pairwise fun a b => a.1 < b.1
  | k, [], _ => ⟨by simp, .nil⟩
  | k, r :: rs, h => by
    rw [riseB, Bool.and_eq_true, less_eq, decide_eq_true_iff] at h
    obtain ⟨h1, h2⟩ := rise_pair r.1 rs h.2
    refine ⟨fun x hx => ?_, List.pairwise_cons.2 ⟨h1, h2⟩⟩
    rcases List.mem_cons.1 hx with rfl | hx
    · exact h.1
    · exact List.lt_trans h.1 (h1 x hx)
theorem nm_row (r : Ln) (hr : r ∈ nmRows) : RowP r := rowB_P r (List.all_eq_true.1 row_all r hr)
theorem hexB_int (c : UInt8) (h : hexB c = true) : 0 ≤ hexI (c.toNat : Int) ∧ hexI (c.toNat : Int) < 16 ∧ c ≠ 10 ∧ c ≠ 32 ∧ (48 ≤ c.toNat ∧ c.toNat ≤ 57 ∧ hexI (c.toNat : Int) = c.toNat - 48 ∨ 65 ≤ c.toNat ∧ c.toNat ≤ 70 ∧ hexI (c.toNat : Int) = c.toNat - 55) := by
  unfold hexB at h
  rw [decide_eq_true_iff] at h
  have e10 : c ≠ 10 := by rintro rfl; revert h; decide
  have e32 : c ≠ 32 := by rintro rfl; revert h; decide
  unfold hexI
  rcases h with h | h
  · rw [if_pos (by omega)]; refine ⟨by omega, by omega, e10, e32, .inl ⟨h.1, h.2, rfl⟩⟩
  · rw [if_neg (by omega), if_pos (by omega)]; refine ⟨by omega, by omega, e10, e32, .inr ⟨h.1, h.2, rfl⟩⟩
theorem RowP.no10 {r : Ln} (h : RowP r) : 10 ∉ r.2 := by
  intro hm
  rcases h.form with ⟨a, -⟩ | ⟨a, -⟩
  · rw [a] at hm; exact (hexB_int 10 (h.firHex _ hm)).2.2.1 rfl
  · rw [a, List.mem_append, List.mem_cons] at hm
    rcases hm with hm | hm | hm
    · exact (hexB_int 10 (h.firHex _ hm)).2.2.1 rfl
    · revert hm; decide
    · exact (hexB_int 10 (h.secHex _ hm)).2.2.1 rfl
theorem RowP.good {r : Ln} (h : RowP r) : Good r := ⟨h.ne, fun hm => (h.key _ hm).1 rfl, fun hm => (h.key _ hm).2 rfl, h.no10⟩
theorem nm_valid : Valid nmRows := ⟨fun r hr => (nm_row r hr).good, (rise_pair [] nmRows rise_all).2⟩

/-- a number's digits -/
def stepH (n : Nat) (c : UInt8) : Nat := 16 * n + (hexI (c.toNat : Int)).toNat
def hexN (l : Txt) : Nat := l.foldl stepH 0
theorem hexN_nil : hexN [] = 0 := rfl
theorem hexN_snoc (l : Txt) (c : UInt8) : hexN (l ++ [c]) = 16 * hexN l + (hexI (c.toNat : Int)).toNat := by
  unfold hexN; rw [List.foldl_append]; rfl
theorem foldH_lt : ∀ (l : Txt) (n : Nat), (∀ c ∈ l, hexB c = true) → l.foldl stepH n < (n + 1) * 16 ^ l.length
  | [], n, _ => by simp
  | c :: l, n, h => by
    have h1 := hexB_int c (h c List.mem_cons_self)
    have ih := foldH_lt l (stepH n c) (fun x hx => h x (List.mem_cons_of_mem _ hx))
    rw [List.foldl_cons, List.length_cons, Nat.pow_succ]
    refine Nat.lt_of_lt_of_le ih ?_
    have : stepH n c + 1 ≤ (n + 1) * 16 := by unfold stepH; omega
    calc (stepH n c + 1) * 16 ^ l.length ≤ ((n + 1) * 16) * 16 ^ l.length := Nat.mul_le_mul_right _ this
      _ = (n + 1) * (16 ^ l.length * 16) := by rw [Nat.mul_assoc, Nat.mul_comm 16]
theorem hexN_lt (l : Txt) (h : ∀ c ∈ l, hexB c = true) (hl : l.length ≤ 5) : hexN l < 1048576 := by
  have h1 := foldH_lt l 0 h
  have h2 : 16 ^ l.length ≤ 16 ^ 5 := Nat.pow_le_pow_right (by decide) hl
  unfold hexN
  omega
/-- P6.1: the numbers of a name's signs, by the rest of its line -/
def aOf : Option Txt → Nat | none => 0 | some r => hexN (firL r)
def bOf : Option Txt → Nat | none => 0 | some r => hexN (secL r)
noncomputable def nmLook (name : Txt) : Option Txt := lookL nmRows name
theorem look_row {name r : Txt} (h : nmLook name = some r) : (name, r) ∈ nmRows := by
  unfold nmLook lookL at h
  cases hf : nmRows.find? (fun x => x.1 == name) with
  | none => rw [hf] at h; simp at h
  | some q =>
    rw [hf] at h
    have e1 := List.find?_some hf
    have e2 := List.mem_of_find?_eq_some hf
    simp only [beq_iff_eq] at e1
    simp only [Option.map_some, Option.some.injEq] at h
    rw [← e1, ← h]
    exact e2
theorem look_of {r : Ln} (hr : r ∈ nmRows) : nmLook r.1 = some r.2 := by
  obtain ⟨i, hi, rfl⟩ := List.getElem_of_mem hr
  exact lookL_at nm_valid i hi
theorem aOf_lt (name : Txt) : aOf (nmLook name) < 1048576 := by
  cases h : nmLook name with
  | none => decide
  | some r => have := nm_row _ (look_row h); exact hexN_lt _ this.firHex this.firLen
theorem bOf_lt (name : Txt) : bOf (nmLook name) < 1048576 := by
  cases h : nmLook name with
  | none => decide
  | some r => have := nm_row _ (look_row h); exact hexN_lt _ this.secHex this.secLen

theorem nm_size : nmT.size ≤ 1000000 := by
  have h1 : nmT.data.toList.length + 1 = (flatN nmRows).length := by rw [nm_flatN, List.length_append, List.length_singleton]
  have h2 : ∀ rs : List Ln, (∀ r ∈ rs, RowP r) → (flatN rs).length ≤ 48 * rs.length := by
    intro rs
    induction rs with
    | nil => simp [flatN]
    | cons r rs ih =>
      intro h
      have h3 := ih (fun x hx => h x (List.mem_cons_of_mem _ hx))
      have h4 := h r List.mem_cons_self
      have h5 := h4.len
      have h6 := h4.firLen
      have h7 := h4.secLen
      have h8 : r.2.length ≤ 11 := by
        rcases h4.form with ⟨a, -⟩ | ⟨a, -⟩
        · rw [a]; omega
        · rw [a]; simp; omega
      simp [flatN, lineL]
      omega
  have h3 := h2 nmRows nm_row
  rw [nm_len] at h3
  rw [Lib.size_eq]
  omega

/-- the same table, by any name -/
structure IsNm (T : ByteArray) : Prop where
  eq : nmT = T
theorem IsNm.list {T : ByteArray} (h : IsNm T) : T.data.toList = flatL nmRows := by rw [← h.eq]; exact nm_flat
theorem IsNm.size {T : ByteArray} (h : IsNm T) : T.size ≤ 1000000 := by rw [← h.eq]; exact nm_size
end Go.Proofs.YtbcmfcddkegcoaaGreatDoor

/-! What strconv.ParseInt answers for digits with sixteen digits, and for no text at all; what package names' number does. -/
namespace Go.Proofs.YtbcmfcddkegcoaaGreatDoor
open Go.RowKit Go.Lib

theorem or32 (q : Int) (h0 : 65 ≤ q) (h1 : q ≤ 70) : bits .or .u8 q 32 = q + 32 := by
  have : q = 65 ∨ q = 66 ∨ q = 67 ∨ q = 68 ∨ q = 69 ∨ q = 70 := by omega
  rcases this with rfl | rfl | rfl | rfl | rfl | rfl <;> decide
theorem take_suc (l : Txt) (k : Nat) (h : k < l.length) : hexN (l.take (k + 1)) = 16 * hexN (l.take k) + (hexI (l[k].toNat : Int)).toNat := by
  rw [List.take_succ_eq_append_getElem h, hexN_snoc]

set_option maxHeartbeats 8000000 in
set_option maxRecDepth 100000 in
theorem uint16 (t : ByteArray) (w : World) (hne : t.size ≠ 0) (hl : t.size ≤ 5) (hx : ∀ c ∈ t.data.toList, hexB c = true) :
    Calls Tryz.prog 177 #[.string t, .int .i64 16, .int .i64 64] w fun e w' => e = .returned (.tuple #[.int .u64 (hexN t.data.toList : Int), .nilIface]) ∧ w' = Lib.bytesWorld w 5 t := by
  have hemp : t.toList.isEmpty = false := by
    rw [ByteArray.toList_eq]
    cases h : t.data.toList with
    | nil => exact absurd (by rw [Lib.size_eq, h]; rfl) hne
    | cons => rfl
  have hcv := Lib.run_convert_string_bytes (P := Tryz.prog) w 9 25 5 t (u := .string) Tryz.underlying9 Tryz.underlying25 Tryz.underlying5
  have hB : ∀ j, j < t.size → (Lib.bytesWorld w 5 t).cell? ⟨w.heap.size, j, none⟩ = some (.int .u8 (t.data.toList.getD j 0).toNat) := fun j hj => Lib.bytesWorld_cell w 5 t j hj
  obtain ⟨W1, hW1⟩ : ∃ W1, W1 = Lib.bytesWorld w 5 t := ⟨_, rfl⟩
  rw [← hW1] at hcv hB ⊢
  clear hW1
  obtain ⟨bs, hL⟩ : ∃ bs, bs = t.data.toList := ⟨_, rfl⟩
  have hLn : bs.length = t.size := by rw [hL, Lib.size_eq]
  rw [← hL] at hB hx ⊢
  clear hL
  obtain ⟨V, hV⟩ : ∃ V : Int, (hexN bs : Int) = V := ⟨_, rfl⟩
  rw [hV]
  have HV := Lib.hid hV
  have HX := Lib.hid hx
  clear hV hx
  have hmv : IntKind.u64.wrap (IntKind.u64.wrap 18446744073709551616 - 1) = 18446744073709551615 := by
    rw [IntKind.wrap_u64, IntKind.wrap_u64]
    decide
  go_enter Tryz.func177, Tryz.ntmps177
  go_wp2
  go_loopw [12, 13, 101] (fun vu vn vi wr => ∃ (k : Nat) (a : Int), vu = .bool false ∧ vn = .int .u64 a ∧ vi = .int .i64 k ∧ k ≤ t.size ∧ Hid (a = (hexN (bs.take k) : Int)) ∧ W1 = wr)
    (fun _ _ vi _ => t.size - (intOf vi).toNat)
  case atStart => exact ⟨0, 0, rfl, rfl, rfl, by omega, Lib.hid (by simp [hexN_nil]), rfl⟩
  case round =>
    obtain ⟨k, a, rfl, rfl, rfl, hk, hh, rfl⟩ := hrel
    have ha := hexN_lt (bs.take k) (fun c hc => HX.out c (List.mem_of_mem_take hc)) (by rw [List.length_take]; omega)
    have a0 : 0 ≤ a := by have := hh.out; omega
    have a1 : a < 1048576 := by have := hh.out; omega
    clear ha
    by_cases hkn : k < t.size
    · have hc := hB k hkn
      have hkl : k < bs.length := by omega
      have hget : bs.getD k 0 = bs[k] := by simp [List.getD, List.getElem?_eq_getElem hkl]
      rw [hget] at hc
      have hs := take_suc bs k hkl
      have hm := HX.out bs[k] (List.getElem_mem _)
      generalize bs[k] = c at hc hs hm
      have hc256 : c.toNat < 256 := c.toNat_lt
      obtain ⟨q1, q2, -, -, q3⟩ := hexB_int c hm
      clear hB hget hm
      have icut : a < 1152921504606846976 := by omega
      rcases q3 with ⟨d0, d1, d2⟩ | ⟨d0, d1, d2⟩
      · have HN : Hid (a * 16 + ((c.toNat : Int) - 48) = (hexN (bs.take (k + 1)) : Int)) := Lib.hid (by rw [hs, d2]; have := hh.out; omega)
        have iov : a * 16 + ((c.toNat : Int) - 48) < 18446744073709551616 := by omega
        clear hs q1 q2 d2
        go_wp2
        go_roundw
        case rel => exact ⟨k + 1, a * 16 + ((c.toNat : Int) - 48), rfl, (by first | rfl | (congr 1; omega)), (by first | rfl | (congr 1; omega)), by omega, HN, trivial⟩
        case measure => simp [intOf]; omega
      · have HN : Hid (a * 16 + ((c.toNat : Int) - 55) = (hexN (bs.take (k + 1)) : Int)) := Lib.hid (by rw [hs, d2]; have := hh.out; omega)
        have iov : a * 16 + ((c.toNat : Int) - 55) < 18446744073709551616 := by omega
        have ho := Lib.hid (or32 (c.toNat : Int) (by omega) (by omega))
        clear hs q1 q2 d2
        go_wp2_with (go_at_call 182; refine (Tryz.internal_strconv_lower _ _).mono ?_; rintro e w' ⟨rfl, rfl⟩; rw [ho.out])
        go_roundw
        case rel => exact ⟨k + 1, a * 16 + ((c.toNat : Int) - 55), rfl, (by first | rfl | (congr 1; omega)), (by first | rfl | (congr 1; omega)), by omega, HN, trivial⟩
        case measure => simp [intOf]; omega
    · have hkk : k = t.size := by omega
      subst hkk
      obtain rfl : a = V := by
        have := hh.out
        rw [List.take_of_length_le (by omega)] at this
        rw [this, HV.out]
      go_wp2
      go_ret2
      exact ⟨rfl, rfl⟩

set_option maxHeartbeats 4000000 in
set_option maxRecDepth 100000 in
theorem int16 (t : ByteArray) (w : World) (hne : t.size ≠ 0) (hl : t.size ≤ 5) (hx : ∀ c ∈ t.data.toList, hexB c = true) :
    Calls Tryz.prog 174 #[.string t, .int .i64 16, .int .i64 64] w fun e w' => e = .returned (.tuple #[.int .i64 (hexN t.data.toList : Int), .nilIface]) ∧ w' = Lib.bytesWorld w 5 t := by
  have hemp : t.toList.isEmpty = false := by
    rw [ByteArray.toList_eq]
    cases h : t.data.toList with
    | nil => exact absurd (by rw [Lib.size_eq, h]; rfl) hne
    | cons => rfl
  have HC := fun w => Lib.hid (uint16 t w hne hl hx)
  have hv := hexN_lt t.data.toList hx (by rw [← Lib.size_eq]; exact hl)
  have h0 : 0 < t.size := by omega
  have hm := hx t[0] (by rw [show t[0] = t.data.toList[0]'(by rw [← Lib.size_eq]; exact h0) from (Array.getElem_toList _).symm]; exact List.getElem_mem _)
  obtain ⟨-, -, -, -, q3⟩ := hexB_int _ hm
  have n1 : ((t[0].toNat : Nat) : Int) ≠ 43 := by omega
  have n2 : ((t[0].toNat : Nat) : Int) ≠ 45 := by omega
  clear hm q3 hx
  obtain ⟨V, hV⟩ : ∃ V : Int, (hexN t.data.toList : Int) = V := ⟨_, rfl⟩
  have v0 : 0 ≤ V := by omega
  have v1 : V < 1048576 := by omega
  rw [hV] at HC ⊢
  clear hV hv
  go_enter Tryz.func174, Tryz.ntmps174
  go_wp2_with (go_at_call 177; refine (HC _).out.mono ?_; rintro e w' ⟨rfl, rfl⟩)
  go_ret2
  exact ⟨rfl, rfl⟩

/-- the variable that the library's error lies in -/
def ErrAt (w : World) : Prop := 2 < w.heap.size ∧ ∃ te pe, w.cell? ⟨2, 0, none⟩ = some (.iface te pe)
theorem ErrAt.below {w w' : World} (h : ErrAt w) (hb : Below w.heap.size w w') : ErrAt w' := by
  obtain ⟨h1, te, pe, h2⟩ := h
  refine ⟨Nat.lt_of_lt_of_le h1 hb.size, te, pe, ?_⟩
  rw [hb.cell (show (⟨2, 0, none⟩ : Addr).block < w.heap.size from h1), h2]

set_option maxHeartbeats 4000000 in
set_option maxRecDepth 100000 in
theorem number_any (l : Txt) (w : World) (hw : ErrAt w) (hl : l.length ≤ 5) (hx : ∀ c ∈ l, hexB c = true) :
    Calls Tryz.prog 165 #[strV l] w fun e w' => e = .returned (.float .f64 (fl (hexN l))) ∧ Below w.heap.size w w' := by
  unfold strV
  by_cases h0 : l = []
  · subst h0
    obtain ⟨h1, te, pe, h2⟩ := hw
    have HE := fun w => Lib.hid (Tryz.internal_strconv_ParseInt_empty 16 64 w)
    have HT := Lib.hid (Tryz.strconv_toError_syntax ⟨#[80, 97, 114, 115, 101, 73, 110, 116]⟩ ⟨#[]⟩ 16 64 _ w (by decide) h2 (.inr ⟨te, pe, rfl⟩))
    have hP : Calls Tryz.prog 172 #[.string ⟨#[]⟩, .int .i64 16, .int .i64 64] w fun e w' => (∃ v, e = .returned (.tuple #[.int .i64 0, v])) ∧ Below w.heap.size w w' := by
      clear h2
      go_enter Tryz.func172, Tryz.ntmps172
      go_wp2_with (first | (go_at_call 174; refine (HE _).out.mono ?_; rintro e w' ⟨rfl, rfl⟩) | (go_at_call 175; refine HT.out.mono ?_; rintro e w' ⟨N, rfl, -, -, b2⟩))
      go_ret2
      exact ⟨⟨_, rfl⟩, b2⟩
    have HP := Lib.hid hP
    have hf := fl_of 0
    clear hP h2 HE HT
    rw [hexN_nil]
    go_enter Tryz.func165, Tryz.ntmps165
    go_wp2_with (go_at_call 172; refine HP.out.mono ?_; rintro e w' ⟨⟨v, rfl⟩, b1⟩)
    go_ret
    exact ⟨rfl, b1⟩
  · have hsz : (⟨l.toArray⟩ : ByteArray).size = l.length := by rw [Lib.size_eq, List.toList_toArray]
    have hd : (⟨l.toArray⟩ : ByteArray).data.toList = l := List.toList_toArray
    have hpos := List.length_pos_iff.2 h0
    have HI := fun w => Lib.hid (int16 ⟨l.toArray⟩ w (by omega) (by omega) (by rw [hd]; exact hx))
    rw [hd] at HI
    have hb := fun w => Lib.bytesWorld_below w 5 ⟨l.toArray⟩
    generalize (⟨l.toArray⟩ : ByteArray) = t at *
    have hf := fl_of (hexN l)
    obtain ⟨V, hV⟩ : ∃ V, fl (hexN l) = V := ⟨_, rfl⟩
    obtain ⟨n, hn⟩ : ∃ n : Int, (hexN l : Int) = n := ⟨_, rfl⟩
    rw [hV]
    rw [hV, hn] at hf
    rw [hn] at HI
    clear hV hn hd hsz hx
    have hP : Calls Tryz.prog 172 #[.string t, .int .i64 16, .int .i64 64] w fun e w' => e = .returned (.tuple #[.int .i64 n, .nilIface]) ∧ w' = Lib.bytesWorld w 5 t := by
      clear hf
      go_enter Tryz.func172, Tryz.ntmps172
      go_wp2_with (go_at_call 174; refine (HI _).out.mono ?_; rintro e w' ⟨rfl, rfl⟩)
      go_ret2
      exact ⟨rfl, rfl⟩
    have HP := Lib.hid hP
    have HBB := Lib.hid (hb w)
    clear hP HI hb
    go_enter Tryz.func165, Tryz.ntmps165
    go_wp2_with (go_at_call 172; refine HP.out.mono ?_; rintro e w' ⟨rfl, rfl⟩)
    go_ret
    exact ⟨rfl, HBB.out⟩
end Go.Proofs.YtbcmfcddkegcoaaGreatDoor

/-! What package names' Value, Short, Longest and Text answer, for every input. -/
namespace Go.Proofs.YtbcmfcddkegcoaaGreatDoor
open Go.RowKit Go.Lib

theorem rest_len {r : Ln} (h : RowP r) : r.2.length ≤ 11 := by
  have h6 := h.firLen
  have h7 := h.secLen
  rcases h.form with ⟨a, -⟩ | ⟨a, -⟩
  · rw [a]; omega
  · rw [a]; simp; omega
theorem fir_cut : ∀ r : Txt, ∃ rest, r = firL r ++ rest ∧ 32 ∉ firL r ∧ (rest = [] ∨ ∃ z, rest = 32 :: z) ∧ rest.tail = secL r
  | [] => ⟨[], rfl, by simp [firL], .inl rfl, rfl⟩
  | c :: l => by
    by_cases h : c = 32
    · subst h
      refine ⟨32 :: l, ?_, ?_, .inr ⟨l, rfl⟩, ?_⟩ <;> simp [firL, secL]
    · obtain ⟨rest, h1, h2, h3, h4⟩ := fir_cut l
      have hb : (c == 32) = false := by simpa using h
      refine ⟨rest, ?_, ?_, h3, ?_⟩
      · rw [firL, hb]; simp only [Bool.false_eq_true, if_false, List.cons_append]; rw [← h1]
      · rw [firL, hb]; simp only [Bool.false_eq_true, if_false, List.mem_cons, not_or]; exact ⟨fun e => h e.symm, h2⟩
      · rw [secL, hb]; simpa using h4

set_option maxHeartbeats 4000000 in
set_option maxRecDepth 1000000 in
theorem value_any (name : ByteArray) (w : World) (hw : ErrAt w) :
    Calls Tryz.prog 148 #[.string name] w fun e w' => e = .returned (.tuple #[.complex .f64 (fl (aOf (nmLook name.data.toList))) (fl (bOf (nmLook name.data.toList))), .bool (nmLook name.data.toList).isSome]) ∧ Below w.heap.size w w' := by
  have HR := fun r h => Lib.hid (look_row (name := name.data.toList) (r := r) h)
  obtain ⟨o, ho⟩ : ∃ o, nmLook name.data.toList = o := ⟨_, rfl⟩
  have ho2 : lookL nmRows name.data.toList = o := ho
  rw [ho] at HR ⊢
  refine calls_of_wp Tryz.func148 rfl ?_
  generalize hT : (ByteArray.mk (List.toArray (List.append _ _))) = T
  have HT : IsNm T := ⟨by rw [← hT]; kernel_rfl⟩
  clear hT
  have HL := fun w => Lib.hid (line_any T name nmRows w (by have := HT.size; omega) HT.list nm_valid)
  rw [ho2] at HL
  clear ho ho2 HT
  unfold strV at *
  cases o with
  | none =>
    have F0 := fl_0
    clear HR
    simp only [Tryz.ntmps148, List.size_toArray, List.length_cons, List.length_nil, Nat.reduceAdd, Nat.reduceSub, Array.replicate_succ, Array.replicate_zero, List.push_toArray, List.append_toArray, List.nil_append, List.cons_append]
    go_wp2_with (fail)
    refine (HL _).out.mono ?_
    rintro e w1 ⟨rfl, b1⟩
    go_wp2
    go_ret2
    exact ⟨rfl, b1⟩
  | some r =>
    obtain ⟨rest, h1, h2, h3, h4⟩ := fir_cut r
    have hp := nm_row _ (HR r rfl).out
    have hx1 := hp.firHex
    have hx2 := hp.secHex
    have hl1 := hp.firLen
    have hl2 := hp.secLen
    have hsz : (⟨r.toArray⟩ : ByteArray).size ≤ 1099511627776 := by
      rw [Lib.size_eq, List.toList_toArray]
      have := rest_len hp
      simp only at this
      omega
    simp only at hx1 hx2 hl1 hl2
    have HC := fun w => Lib.hid (cut_any ⟨r.toArray⟩ 32 (firL r) rest w hsz (by rw [List.toList_toArray]; exact h1) h2 h3)
    have HN1 := fun w h => Lib.hid (number_any (firL r) w h hl1 hx1)
    have HN2 := fun w h => Lib.hid (number_any (secL r) w h hl2 hx2)
    unfold cutV at HC
    rw [h4] at HC
    unfold strV at HN1 HN2
    show Code.wp _ _ (bodyPost _ _ fun e w' => e = .returned (.tuple #[.complex .f64 (fl (hexN (firL r))) (fl (hexN (secL r))), .bool true]) ∧ Below w.heap.size w w') _ _
    obtain ⟨A, hA⟩ : ∃ A, fl (hexN (firL r)) = A := ⟨_, rfl⟩
    obtain ⟨B, hB⟩ : ∃ B, fl (hexN (secL r)) = B := ⟨_, rfl⟩
    rw [hA] at HN1 ⊢
    rw [hB] at HN2 ⊢
    clear hA hB h1 h2 h3 h4 hp hx1 hx2 hl1 hl2 hsz HR
    have HW := Lib.hid hw
    clear hw
    simp only [Tryz.ntmps148, List.size_toArray, List.length_cons, List.length_nil, Nat.reduceAdd, Nat.reduceSub, Array.replicate_succ, Array.replicate_zero, List.push_toArray, List.append_toArray, List.nil_append, List.cons_append]
    go_wp2_with (fail)
    refine (HL _).out.mono ?_
    rintro e w1 ⟨rfl, b1⟩
    have e1 := Lib.hid (HW.out.below b1)
    go_wp2_with (fail)
    refine (HC _).out.mono ?_
    rintro e w2 ⟨rfl, n, rfl⟩
    have b2 := b1.trans (dr_below _ w1 n)
    go_wp2_with (fail)
    refine (HN1 _ (HW.out.below b2)).out.mono ?_
    rintro e w3 ⟨rfl, b3⟩
    have b4 := b2.trans (b3.mono b2.size)
    go_wp2_with (fail)
    refine (HN2 _ (HW.out.below b4)).out.mono ?_
    rintro e w5 ⟨rfl, b5⟩
    go_wp2
    go_ret2
    exact ⟨rfl, b4.trans (b5.mono b4.size)⟩

set_option maxHeartbeats 4000000 in
set_option maxRecDepth 1000000 in
theorem short_any (name : ByteArray) (w : World) (hs : name.size ≤ 1099511627776) :
    Calls Tryz.prog 145 #[.string name] w fun e w' => e = .returned (.bool ((nmLook name.data.toList).isSome && !Lib.hasSuffix name.data.toList [59])) ∧ Below w.heap.size w w' := by
  obtain ⟨o, ho⟩ : ∃ o, nmLook name.data.toList = o := ⟨_, rfl⟩
  have ho2 : lookL nmRows name.data.toList = o := ho
  rw [ho]
  refine calls_of_wp Tryz.func145 rfl ?_
  generalize hT : (ByteArray.mk (List.toArray (List.append _ _))) = T
  have HT : IsNm T := ⟨by rw [← hT]; kernel_rfl⟩
  clear hT
  have HL := fun w => Lib.hid (line_any T name nmRows w (by have := HT.size; omega) HT.list nm_valid)
  rw [ho2] at HL
  obtain ⟨r, hr⟩ : ∃ r, o.getD [] = r := ⟨_, rfl⟩
  obtain ⟨b, hb⟩ : ∃ b, o.isSome = b := ⟨_, rfl⟩
  rw [hr, hb] at HL
  rw [hb]
  have HS := fun w => Lib.hid (Tryz.strings_HasSuffix name ⟨#[59]⟩ w (by omega))
  obtain ⟨c, hc⟩ : ∃ c, Lib.hasSuffix name.data.toList [59] = c := ⟨_, rfl⟩
  have hc2 : Lib.hasSuffix name.data.toList (ByteArray.mk #[59]).data.toList = c := hc
  rw [hc2] at HS
  rw [hc]
  clear ho ho2 HT hr hb hc hc2 o
  unfold strV at *
  cases b
  all_goals
    simp only [Tryz.ntmps145, List.size_toArray, List.length_cons, List.length_nil, Nat.reduceAdd, Nat.reduceSub, Array.replicate_succ, Array.replicate_zero, List.push_toArray, List.append_toArray, List.nil_append, List.cons_append]
    go_wp2_with (first | (go_at_call 161; refine (HL _).out.mono ?_; rintro e w1 ⟨rfl, b1⟩) | (go_at_call 162; refine (HS _).out.mono ?_; rintro e w' ⟨rfl, rfl⟩))
    go_ret
    exact ⟨rfl, b1⟩

set_option maxHeartbeats 4000000 in
set_option maxRecDepth 1000000 in
theorem nmLongest_any (s : ByteArray) (a : Int) (w : World) (ha : -9223372036854775808 ≤ a ∧ a ≤ 9223372036854775807) :
    Calls Tryz.prog 144 #[.string s, .int .i64 a] w fun e w' => e = .returned (.int .i64 (bestL nmRows (winL s.data.toList a 32) : Int)) ∧ ∃ n, w' = w.drewN n := by
  refine calls_of_wp Tryz.func144 rfl ?_
  generalize hT : (ByteArray.mk (List.toArray (List.append _ _))) = T
  have HT : IsNm T := ⟨by rw [← hT]; kernel_rfl⟩
  clear hT
  have HL := fun w => Lib.hid (longest_any T s a 32 nmRows w (by have := HT.size; omega) ha (by decide) HT.list nm_valid)
  obtain ⟨r, hr⟩ : ∃ r : Int, (bestL nmRows (winL s.data.toList a 32) : Int) = r := ⟨_, rfl⟩
  rw [hr] at HL ⊢
  clear HT hr
  simp only [Tryz.ntmps144, List.size_toArray, List.length_cons, List.length_nil, Nat.reduceAdd, Nat.reduceSub, Array.replicate_succ, Array.replicate_zero, List.push_toArray, List.append_toArray, List.nil_append, List.cons_append]
  go_wp2_with (fail)
  refine (HL _).out.mono ?_
  rintro e w1 ⟨rfl, n, rfl⟩
  go_wp2
  go_ret
  exact ⟨rfl, n, rfl⟩

/-- P6.1: a value's text -/
def textL (x y : Nat) : Txt := encodeRune (x : Int) ++ if y = 0 then [] else encodeRune (y : Int)
theorem fl_zero (y : Nat) (h : y < 2 ^ 53) : (FloatKind.f64.format.order (fl y) 0 == some .eq) = decide (y = 0) := by
  have h0 : FloatKind.f64.format.order (fl y) 0 = some (compare y 0) := by
    have := fl_order y 0 h (by omega)
    rwa [fl_0] at this
  rw [h0]
  by_cases e : y = 0
  · subst e; decide
  · rw [Nat.compare_eq_gt.2 (by omega), decide_eq_false e]; rfl
theorem op_toInt (n : Nat) (hn : n < 2 ^ 53) (w : World) : (convert 165 3 (.float .f64 (fl n))).run Tryz.prog w = .ok (.int .i64 (n : Int)) w :=
  run_convert_float_int w 165 3 .f64 .i64 (fl n) n (by rw [Tryz.underlying165]; rfl) Tryz.underlying3 (fl_int n hn)

set_option maxHeartbeats 4000000 in
set_option maxRecDepth 1000000 in
theorem text_any (x y : Nat) (w : World) (hx : x < 2 ^ 53) (hy : y < 2 ^ 53) :
    Calls Tryz.prog 149 #[.complex .f64 (fl x) (fl y)] w fun e w' => e = .returned (.string ⟨(textL x y).toArray⟩) ∧ w = w' := by
  have hz := fl_zero y hy
  have h1 := op_toInt x hx
  have h2 := op_toInt y hy
  have HX := fun w => Lib.hid (sgn_any (x : Int) w)
  have HY := fun w => Lib.hid (sgn_any (y : Int) w)
  obtain ⟨A, hA⟩ : ∃ A : ByteArray, ⟨(encodeRune (x : Int)).toArray⟩ = A := ⟨_, rfl⟩
  obtain ⟨B, hB⟩ : ∃ B : ByteArray, ⟨(encodeRune (y : Int)).toArray⟩ = B := ⟨_, rfl⟩
  rw [hA] at HX
  rw [hB] at HY
  obtain ⟨X, hX⟩ : ∃ X, fl x = X := ⟨_, rfl⟩
  obtain ⟨Y, hY⟩ : ∃ Y, fl y = Y := ⟨_, rfl⟩
  rw [hX] at h1 ⊢
  rw [hY] at h2 hz ⊢
  have hAs : A.size < 8 := by rw [← hA, Lib.size_eq, List.toList_toArray]; have := enc_len (x : Int); have := enc_len (y : Int); omega
  have hBs : B.size < 8 := by rw [← hB, Lib.size_eq, List.toList_toArray]; have := enc_len (x : Int); have := enc_len (y : Int); omega
  have hAB : ¬ 9223372036854775807 < A.size + B.size := by omega
  obtain ⟨R, hR⟩ : ∃ R : ByteArray, ⟨(textL x y).toArray⟩ = R := ⟨_, rfl⟩
  have HR : Hid (R = if y = 0 then A else A ++ B) := Lib.hid (by
    rw [← hR, ← hA, ← hB]
    by_cases h : y = 0
    · rw [if_pos h]; congr 1; unfold textL; rw [if_pos h, List.append_nil]
    · rw [if_neg h]; refine str_ext ?_; unfold textL; rw [if_neg h, ByteArray.data_append, Array.toList_append])
  rw [hR]
  clear hA hB hX hY hR
  by_cases h : y = 0
  · rw [decide_eq_true h] at hz
    rw [if_pos h] at HR
    clear h hx hy HY h2 hBs hAB
    go_enter Tryz.func149, Tryz.ntmps149
    go_wp2_with (go_at_call 30; refine (HX _).out.mono ?_; rintro e w' ⟨rfl, rfl⟩)
    go_ret
    exact ⟨ret_str HR.out.symm, rfl⟩
  · rw [decide_eq_false h] at hz
    rw [if_neg h] at HR
    clear h hx hy
    go_enter Tryz.func149, Tryz.ntmps149
    go_wp2_with (fail)
    refine (HX _).out.mono ?_
    rintro e w1 ⟨rfl, rfl⟩
    go_wp2_with (fail)
    refine (HY _).out.mono ?_
    rintro e w1 ⟨rfl, rfl⟩
    go_wp2
    go_ret
    exact ⟨ret_str HR.out.symm, rfl⟩
end Go.Proofs.YtbcmfcddkegcoaaGreatDoor

/-! Where a key's line begins in a sorted list, and what stands in it: plain mathematics. -/
namespace Go.Proofs.YtbcmfcddkegcoaaGreatDoor
open Go.RowKit Go.Lib

/-- a line's rest, read byte by byte -/
structure Par where
  a : Nat
  b : Nat
  one : Bool
end Go.Proofs.YtbcmfcddkegcoaaGreatDoor

/-! A text's last byte, and what follows of it for names: plain mathematics. -/
namespace Go.Proofs.YtbcmfcddkegcoaaGreatDoor
open Go.RowKit Go.Lib

/-- a semicolon stands at a key's end alone -/
theorem semi_end {k l : Txt} {r : Txt} (hk : (k, r) ∈ nmRows) (he : k <+: l) (q : Txt) (hq : l = q ++ k.drop q.length) (h59 : Lib.hasSuffix q [59] = true) (hlen : q.length < k.length) (hp : q <+: k) : False := by
  obtain ⟨z, rfl⟩ := hp
  have h1 := nm_row _ hk
  rw [Lib.hasSuffix, List.isSuffixOf_iff_suffix] at h59
  obtain ⟨y, rfl⟩ := h59
  have hz : z ≠ [] := by rintro rfl; simp at hlen
  have h2 := h1.semi 59 (by
    simp only
    rw [List.dropLast_append_of_ne_nil hz]
    simp)
  exact h2 rfl
/-- P6.2: behind a name with a semicolon no longer name stands -/
theorem best_semi (q z : Txt) (h : (nmLook q).isSome = true) (h59 : Lib.hasSuffix q [59] = true) : bestL nmRows (q ++ z) = q.length := by
  obtain ⟨r, hr⟩ := Option.isSome_iff_exists.1 h
  have hrow := look_row hr
  refine best_eq _ _ _ ?_ (.inr ⟨_, hrow, List.prefix_append _ _, rfl⟩)
  intro x hx hp
  refine Nat.le_of_not_lt fun hlt => ?_
  have hqx : q <+: x.1 := List.prefix_of_prefix_length_le (List.prefix_append q z) hp (Nat.le_of_lt hlt)
  obtain ⟨y, hy⟩ := hqx
  exact semi_end (k := x.1) (l := x.1) (r := x.2) hx List.prefix_rfl q (by rw [← hy, List.drop_left]) h59 hlt ⟨y, hy⟩
/-- with a bound as great as any key, and what stands ahead taken away -/
theorem best_bound (W : Txt) : bestL nmRows (W.take 32) = bestL nmRows W := by
  refine best_eq _ _ _ (fun x hx hp => best_ge _ _ x hx (hp.trans (List.take_prefix _ _))) ?_
  rcases best_mem nmRows W with h | ⟨x, hx, hp, e⟩
  · exact .inl h
  · refine .inr ⟨x, hx, ?_, e⟩
    exact List.prefix_of_prefix_length_le hp (List.take_prefix _ _) (by
      rw [List.length_take]
      have := (nm_row x hx).len
      have := hp.length_le
      omega)
theorem win_ahead (a q : Txt) : winL (a ++ q) (a.length : Int) 32 = q.take 32 := by
  unfold winL
  rw [if_neg (by omega), show ((a.length : Nat) : Int).toNat = a.length by omega, List.drop_left]
  rfl

/-- P6.3: how long a name's text is -/
theorem text_len (q : Txt) (h : (nmLook q).isSome = true) : 0 < (textL (aOf (nmLook q)) (bOf (nmLook q))).length ∧ (textL (aOf (nmLook q)) (bOf (nmLook q))).length ≤ 2 * q.length + 2 ∧ (textL (aOf (nmLook q)) (bOf (nmLook q))).length ≤ 8 := by
  obtain ⟨r, hr⟩ := Option.isSome_iff_exists.1 h
  have hrow := nm_row _ (look_row hr)
  have ha := enc_len ((aOf (nmLook q) : Nat) : Int)
  have hb := enc_len ((bOf (nmLook q) : Nat) : Int)
  have hne := List.length_pos_iff.2 hrow.ne
  simp only at hne
  have hb2 : bOf (nmLook q) = 0 ∨ 3 ≤ q.length := by
    rw [hr]
    rcases hrow.form with ⟨-, h2⟩ | ⟨-, -, h2⟩
    · left; simp only at h2; show hexN (secL r) = 0; rw [h2]; rfl
    · right; exact h2
  unfold textL
  rw [List.length_append]
  by_cases e : bOf (nmLook q) = 0
  · rw [if_pos e]; simp only [List.length_nil]; omega
  · rw [if_neg e]; omega
end Go.Proofs.YtbcmfcddkegcoaaGreatDoor

/-! What the document's functions of layer 6 answer, for every input: where a key's line begins. -/
namespace Go.Proofs.YtbcmfcddkegcoaaGreatDoor
open Go.RowKit Go.Lib

/-- what the walk through all places asks of the table: by numbers of bytes -/
structure AtI (T W : ByteArray) (R : Int) : Prop where
  yes : ∀ i : Nat, i + W.size ≤ T.size → (i = 0 ∨ ∃ h : i - 1 < T.size, ((T[i - 1].toNat : Nat) : Int) = 10) → (T.extract i (i + W.size)).toList = W.toList → R = i
  fir : ∀ (i : Nat) (h : i < T.size) (h0 : 0 < W.size), ¬ ((T[i].toNat : Nat) : Int) = ((W[0].toNat : Nat) : Int) → R ≠ i
  pre : ∀ (i : Nat) (h : i < T.size), ¬ ((T[i].toNat : Nat) : Int) = 10 → R ≠ (i : Int) + 1
  sl : ∀ i : Nat, ¬ (T.extract i (i + W.size)).toList = W.toList → R ≠ i
  fin : R = -1 ∨ 0 ≤ R ∧ R + W.size ≤ T.size

end Go.Proofs.YtbcmfcddkegcoaaGreatDoor

/-! What the document's functions of layer 6 answer, for every input: a name's value. -/
namespace Go.Proofs.YtbcmfcddkegcoaaGreatDoor
open Go.RowKit Go.Lib

/-- what the walk along a line's rest asks of the table -/
structure RestI (T : ByteArray) (p : Nat) (r : Txt) : Prop where
  le : p + r.length ≤ T.size
  byte : ∀ (i j : Nat) (hj : j < r.length) (hi : i < T.size), i = p + j → T[i] = r[j]
  fin : p + r.length = T.size ∨ ∃ h : p + r.length < T.size, T[p + r.length] = 10
  bytes : ∀ c ∈ r, c = 32 ∨ hexB c = true
end Go.Proofs.YtbcmfcddkegcoaaGreatDoor

/-! What the document's functions of layer 6 answer, for every input: a name's text, the longest name, and a name by a number. -/
namespace Go.Proofs.YtbcmfcddkegcoaaGreatDoor
open Go.RowKit Go.Lib

end Go.Proofs.YtbcmfcddkegcoaaGreatDoor

/-! What the document's functions of layer 6 answer, for every input: a name by a number. -/
namespace Go.Proofs.YtbcmfcddkegcoaaGreatDoor
open Go.RowKit Go.Lib

/-- what the walk from line to line asks of the table -/
structure NthI (T : ByteArray) (M : Nat) (b : Nat → Nat) (key : Txt) : Prop where
  zero : b 0 = 0
  up : ∀ j, j < M → b j < b (j + 1)
  le : ∀ j, j ≤ M → b j ≤ b M
  top : b M + key.length < T.size
  ten : ∀ (j i : Nat) (h : i < T.size), j < M → b j ≤ i → i < b (j + 1) → (((T[i].toNat : Nat) : Int) = 10 ↔ i + 1 = b (j + 1))
  ne : ∀ (e : Nat) (h : e < T.size), b M ≤ e → e < b M + key.length → ((T[e].toNat : Nat) : Int) ≠ 32
  sp : ∀ (e : Nat) (h : e < T.size), e = b M + key.length → ((T[e].toNat : Nat) : Int) = 32
  cut : ∀ p l : Nat, p = b M → l = b M + key.length → T.extract p l = ⟨key.toArray⟩

end Go.Proofs.YtbcmfcddkegcoaaGreatDoor
