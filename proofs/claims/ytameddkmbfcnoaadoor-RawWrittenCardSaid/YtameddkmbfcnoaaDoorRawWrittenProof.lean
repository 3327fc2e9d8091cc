/-
  The law RawWritten of flail/flaillaw12 answers true for every input, and changes nothing that was there. Condition, which the card ties to the program's text: when the call begins, the package variables that the row lists hold what that text lays in them (math/bits.deBruijn32tab, math/bits.deBruijn64tab, internal/strconv.uint64pow10, strconv.ErrRange, strconv.ErrSyntax, flail/number.others).
-/
import Derived.Test.YtameddkmbfcnoaaDoorRows
import Derived.Test.YtameddkmbfcnoaaDoorRawAwake
import Derived.Test.YtameddkmbfcnoaaDoorP1
import Derived.Test.YtameddkmbfcnoaaDoorCards
import Derived.Test.YtameddkmbfcnoaaDoorP6
import Derived.WalkKit
import Derived.ProofKit
import Derived.OpenShut
import Derived.ShutString
import Derived.ChangeOld
import Derived.Below
namespace Go.Proofs.YtameddkmbfcnoaaDoor.rawWritten
open Go.ChangeShapes Go.WideShapes Go.ChangeAt Go.RowKit
open Go.ChangeMaps (open_string shut_string)
set_option linter.unusedVariables false

theorem own : ownKnob Tryd.prog.godebug = none := by kernel_rfl
theorem laidOut : laidOutB Tryd.prog = true := by kernel_rfl

/-- WHAT THE WALK IS TOLD OF A SLICE OF INTEGERS THAT CAME IN: it is nil; or it leads to a row of 'cap' cells, the numbers 'zs' (the first 'len' are its elements, the rest its spare room), each fitting its kind. -/
def IsRow (k : IntKind) (w : World) (a : Option Addr) (len cap : Nat) (zs : List Int) : Prop :=
  (a = none ∧ len = 0 ∧ cap = 0 ∧ zs = []) ∨
  ∃ x, a = some x ∧ len ≤ cap ∧ cap ≤ maxLen ∧ zs.length = cap ∧ (∀ i, i < zs.length → w.cell? (x.add i) = some (.int k (zs.getD i 0))) ∧ ∀ n ∈ zs, (Lit.int k n).wf = true

theorem low_of_cell {w : World} {x : Addr} {v : Value} (h : w.cell? x = some v) : x.block < w.heap.size := by
  rcases Nat.lt_or_ge x.block w.heap.size with h' | h'
  · exact h'
  · simp [World.cell?, Array.getElem?_eq_none h'] at h
theorem add_block (x : Addr) (i : Nat) : (x.add i).block = x.block := by unfold Addr.add; split <;> rfl
theorem small_letter : ∀ n, n < 26 → lowB (UInt8.ofNat (97 + n)) = UInt8.ofNat (97 + n) ∧ UInt8.ofNat (97 + n) ≠ 60 ∧ (UInt8.ofNat (97 + n)).toNat = 97 + n := by decide +kernel
theorem opt_at (s : ByteArray) (i : Nat) (h : i < s.size) : s.data.toList[i]? = some s[i] := by
  rw [List.getElem?_eq_getElem (by rw [← Lib.size_eq]; exact h)]; rfl
/-- what is asked of each byte -/
def PlainAt (l : Txt) (i : Nat) : Prop := l[i]? ≠ some 60 ∧ l[i]? ≠ some 38 ∧ l[i]? ≠ some 0
theorem plains (l : Txt) (h : ∀ i, i < l.length → PlainAt l i) : 60 ∉ l ∧ 38 ∉ l ∧ 0 ∉ l := by
  have lt : ∀ (i : Nat) (c : UInt8), l[i]? = some c → i < l.length := fun i c e => (List.getElem?_eq_some_iff.1 e).1
  refine ⟨fun e => ?_, fun e => ?_, fun e => ?_⟩
  · obtain ⟨i, hi⟩ := List.mem_iff_getElem?.1 e
    exact (h _ (lt _ _ hi)).1 hi
  · obtain ⟨i, hi⟩ := List.mem_iff_getElem?.1 e
    exact (h _ (lt _ _ hi)).2.1 hi
  · obtain ⟨i, hi⟩ := List.mem_iff_getElem?.1 e
    exact (h _ (lt _ _ hi)).2.2 hi
theorem low_all : ∀ l : Txt, (∀ y ∈ l, lowB y = y ∧ y ≠ 60) → lowL l = l ∧ 60 ∉ l
  | [], _ => ⟨rfl, by simp⟩
  | c :: l, h => by
    obtain ⟨h1, h2⟩ := low_all l fun y hy => h y (List.mem_cons_of_mem _ hy)
    obtain ⟨c1, c2⟩ := h c List.mem_cons_self
    refine ⟨by rw [lowL_cons, c1, h1], ?_⟩
    rw [List.mem_cons, not_or]
    exact ⟨fun e => c2 e.symm, h2⟩
set_option maxRecDepth 100000 in
set_option maxHeartbeats 4000000 in
theorem walk (a0 : ByteArray) (a1 : Option Addr) (len1 cap1 : Nat) (z1 : List Int) (a2 : Bool) (w : World) (hT : LaidAt w) (w0 : a0.size ≤ maxLen) (w1 : IsRow .u8 w a1 len1 cap1 z1) :
    Calls Tryd.prog 4 #[.string a0, .slice a1 len1 cap1, .bool a2] w fun e w' => e = .returned (.bool true) ∧ Below w.heap.size w w' := by
  have HW := Lib.hid hT
  clear hT
  by_cases hlen : 300 < a0.size ∨ 60 < len1 ∨ len1 = 0
  · have hc : decide ((300 : Int) < (a0.size : Int)) = true ∨ decide ((300 : Int) < (a0.size : Int)) = false ∧ decide ((60 : Int) < (len1 : Int)) = true ∨ decide ((300 : Int) < (a0.size : Int)) = false ∧ decide ((60 : Int) < (len1 : Int)) = false ∧ ((len1 : Int) == 0) = true := by
      simp only [decide_eq_true_eq, decide_eq_false_iff_not, beq_iff_eq]; omega
    clear w0 w1 hlen
    rcases hc with hc | ⟨hc, hd⟩ | ⟨hc, hd, he⟩
    all_goals
      go_enter Tryd.func4, Tryd.ntmps4
      go_wp2_with (fail)
      refine (rawAwake_any w HW.out).mono ?_
      rintro e w1 ⟨rfl, c1⟩
      go_wp2
      go_ret
      exact ⟨rfl, c1⟩
  rcases w1 with ⟨rfl, h, -, -⟩ | ⟨x, rfl, hlc, hcm, hzl, hcell, hwf⟩
  · exact absurd (Or.inr (Or.inr h)) hlen
  have hs0 : a0.size ≤ 300 := by omega
  have d0 : decide ((300 : Int) < (a0.size : Int)) = false := decide_eq_false (by omega)
  have hl1 : ((len1 : Int) == 0) = false := beq_eq_false_iff_ne.2 (by omega)
  have hl2 : decide ((60 : Int) < (len1 : Int)) = false := decide_eq_false (by omega)
  have hq : ∀ i, i < len1 → 0 ≤ z1.getD i 0 ∧ z1.getD i 0 < 256 := fun i hi => by
    have hi' : i < z1.length := by omega
    have hw := hwf z1[i] (List.getElem_mem hi')
    have hb : 0 ≤ z1[i] ∧ z1[i] ≤ 255 := by simpa [Lit.wf, IntKind.min, IntKind.max, IntKind.signed, IntKind.bits] using hw
    rw [List.getD_eq_getElem?_getD, List.getElem?_eq_getElem hi']
    exact ⟨hb.1, by have := hb.2; show z1[i] < 256; omega⟩
  have HQ := Lib.hid hq
  have hlow : x.block < w.heap.size := by
    have := low_of_cell (hcell 0 (by omega))
    rwa [add_block] at this
  have HC0 : Hid (∀ W : World, Below w.heap.size w W → ∀ i, i < len1 → W.cell? (x.add i) = some (.int .u8 (z1.getD i 0))) := Lib.hid (fun W hW i hi => by
    rw [hW.cell (p := x.add i) (by rw [add_block]; exact hlow)]; exact hcell i (by omega))
  have h60 : len1 ≤ 60 := by omega
  have h01 : 1 ≤ len1 := by omega
  clear hq hlow hcell hwf hzl hlen w0
  unfold maxLen at hcm
  go_enter Tryd.func4, Tryd.ntmps4
  go_wp2_with (fail)
  refine (rawAwake_any w HW.out).mono ?_
  rintro e w1 ⟨rfl, c1⟩
  go_wp2
  clear hl1 hl2 d0
  go_loopw [8] (fun v wr => ∃ i : Nat, v = .int .i64 (i : Int) ∧ w1 = wr ∧ i ≤ a0.size ∧ Hid (∀ j, j < i → PlainAt a0.data.toList j)) (fun v _ => a0.size - (intOf v).toNat)
  case atStart => exact ⟨0, rfl, rfl, Nat.zero_le _, Lib.hid fun j h => absurd h (by omega)⟩
  case round =>
    obtain ⟨i, rfl, rfl, hi, HI⟩ := hrel
    by_cases hlt : i < a0.size
    · have ho := opt_at a0 i hlt
      have HO := Lib.hid ho
      clear ho
      by_cases c60 : a0[i] = 60
      · have b60 : (((a0[i].toNat : Nat) : Int) == 60) = true := by rw [c60]; rfl
        clear c60
        go_wp2
        go_ret
        exact ⟨rfl, c1⟩
      have b60 : (((a0[i].toNat : Nat) : Int) == 60) = false := by
        rw [beq_eq_false_iff_ne]; exact fun h => c60 (u8_eq _ 60 (by decide) h)
      by_cases c38 : a0[i] = 38
      · have b38 : (((a0[i].toNat : Nat) : Int) == 38) = true := by rw [c38]; rfl
        clear c60 c38
        go_wp2
        go_ret
        exact ⟨rfl, c1⟩
      have b38 : (((a0[i].toNat : Nat) : Int) == 38) = false := by
        rw [beq_eq_false_iff_ne]; exact fun h => c38 (u8_eq _ 38 (by decide) h)
      by_cases c0 : a0[i] = 0
      · have b0 : (((a0[i].toNat : Nat) : Int) == 0) = true := by rw [c0]; rfl
        clear c60 c38 c0
        go_wp2
        go_ret
        exact ⟨rfl, c1⟩
      have b0 : (((a0[i].toNat : Nat) : Int) == 0) = false := by
        rw [beq_eq_false_iff_ne]; exact fun h => c0 (u8_eq _ 0 (by decide) h)
      have hn : ∀ j, j < i + 1 → PlainAt a0.data.toList j := fun j hj => by
        rcases Nat.lt_or_eq_of_le (Nat.le_of_lt_succ hj) with h1 | rfl
        · exact HI.out j h1
        · exact ⟨by rw [HO.out]; exact fun e => c60 (Option.some.inj e), by rw [HO.out]; exact fun e => c38 (Option.some.inj e), by rw [HO.out]; exact fun e => c0 (Option.some.inj e)⟩
      have HN := Lib.hid hn
      clear hn c60 c38 c0
      go_wp2
      go_roundw
      case rel => exact ⟨i + 1, by go_num, trivial, by omega, HN⟩
      case measure => simp [intOf]; omega
    · have hx : i = a0.size := by omega
      subst hx
      have hpl := plains a0.data.toList (fun j hj => HI.out j (by rw [Lib.size_eq]; exact hj))
      have HPL := Lib.hid hpl
      clear hpl hlt
      go_wp2
      go_loopw [9, 10] (fun a c wr => ∃ (i : Nat) (S : ByteArray), i ≤ len1 ∧ a = .string S ∧ c = .int .i64 (i : Int) ∧ Hid (∀ y ∈ S.data.toList, lowB y = y ∧ y ≠ 60) ∧ S.size = i ∧ Below w.heap.size w wr) (fun _ c _ => len1 - (intOf c).toNat)
      case atStart => exact ⟨0, ⟨#[]⟩, by omega, rfl, rfl, Lib.hid (by intro y hy; cases hy), rfl, c1⟩
      case round =>
        obtain ⟨i, S, hi, rfl, rfl, HSA, hsz, hbw⟩ := hrel
        have HBW := Lib.hid hbw
        by_cases hlt : i < len1
        · have hc := HC0.out _ hbw i hlt
          obtain ⟨q0, q1⟩ := HQ.out i hlt
          obtain ⟨q, hqq⟩ : ∃ q, z1.getD i 0 = q := ⟨_, rfl⟩
          rw [hqq] at hc q0 q1
          have i0 : 0 ≤ q % 26 := Int.emod_nonneg _ (by decide)
          have i1 : q % 26 < 26 := Int.emod_lt_of_pos _ (by decide)
          obtain ⟨n, hn⟩ : ∃ n : Nat, q % 26 = n := ⟨(q % 26).toNat, by omega⟩
          obtain ⟨t1, t2, t3⟩ := small_letter n (by omega)
          obtain ⟨c, hcc⟩ : ∃ c, UInt8.ofNat (97 + n) = c := ⟨_, rfl⟩
          rw [hcc] at t1 t2 t3
          have H97 : Hid ((c.toNat : Int) = 97 + q % 26) := Lib.hid (by rw [t3, hn]; omega)
          have HA2 : Hid (∀ y ∈ (S ++ ⟨#[c]⟩ : ByteArray).data.toList, lowB y = y ∧ y ≠ 60) := Lib.hid (by
            intro y hy
            rw [ByteArray.data_append, Array.toList_append, List.mem_append] at hy
            rcases hy with hy | hy
            · exact HSA.out y hy
            · have : y = c := by simpa using hy
              subst this; exact ⟨t1, t2⟩)
          have Z1 : Hid ((S ++ ⟨#[c]⟩ : ByteArray).size = i + 1) := Lib.hid (by rw [ByteArray.size_append, hsz]; rfl)
          have g2 : ¬ 9223372036854775807 < S.size + (ByteArray.mk #[c]).size := by rw [show (ByteArray.mk #[c]).size = 1 from rfl]; omega
          clear hqq hn t1 t2 t3 hcc hsz hbw
          go_wp2
          rw [oneByte _ _ _ H97.out]
          simp only [Result.andThen]
          rw [Oper.upon_value]
          go_wp2
          go_roundw
          case rel => exact ⟨i + 1, _, by omega, rfl, by go_num, HA2, Z1.out, HBW.out.alloc HBW.out.size _⟩
          case measure => simp [intOf]; omega
        · have hx : i = len1 := by omega
          subst hx
          obtain ⟨o1, o2, o3⟩ := HPL.out
          obtain ⟨l1, l2⟩ := low_all S.data.toList HSA.out
          have hne : S.data.toList ≠ [] := fun e => by
            have : S.size = 0 := by rw [Lib.size_eq, e]; rfl
            omega
          obtain ⟨f1, f2, f3, f4⟩ := find_told S.data.toList a0.data.toList hne l1 o1 l2
          have f5 := raw_same a2 a0.data.toList o2 o3
          have z2 : (a0 ++ ⟨#[60, 47]⟩ ++ S ++ ⟨#[62]⟩ ++ a0 : ByteArray).data.toList = a0.data.toList ++ [60, 47] ++ S.data.toList ++ [62] ++ a0.data.toList := by simp only [ByteArray.data_append, Array.toList_append]
          have z3 : (a0 ++ ⟨#[60, 47]⟩ ++ S : ByteArray).data.toList = a0.data.toList ++ [60, 47] ++ S.data.toList := by simp only [ByteArray.data_append, Array.toList_append]
          have z4 : (a0 ++ ⟨#[60, 47]⟩ ++ S ++ ⟨#[120, 62]⟩ : ByteArray).data.toList = a0.data.toList ++ [60, 47] ++ S.data.toList ++ [120, 62] := by simp only [ByteArray.data_append, Array.toList_append]
          rw [← z2] at f2
          rw [← z3] at f3
          rw [← z4] at f4
          rw [← Lib.size_eq] at f1 f2 f3 f4
          rw [← Lib.size_eq] at f3 f4
          have k2 : (⟨#[60, 47]⟩ : ByteArray).size = 2 := rfl
          have k1 : (⟨#[62]⟩ : ByteArray).size = 1 := rfl
          have k3 : (⟨#[120, 62]⟩ : ByteArray).size = 2 := rfl
          have H1 := fun w h => Lib.hid (rawFind_any a0 0 S w (by omega) (by omega) (by decide) h)
          have H2 := fun w h => Lib.hid (rawText_any a0 a2 w (by omega) h)
          have H3 := fun w h => Lib.hid (rawFind_any (a0 ++ ⟨#[60, 47]⟩ ++ S ++ ⟨#[62]⟩ ++ a0) 0 S w (by simp only [ByteArray.size_append]; omega) (by omega) (by decide) h)
          have H4 := fun w h => Lib.hid (rawFind_any (a0 ++ ⟨#[60, 47]⟩ ++ S) 0 S w (by simp only [ByteArray.size_append]; omega) (by omega) (by decide) h)
          have H5 := fun w h => Lib.hid (rawFind_any (a0 ++ ⟨#[60, 47]⟩ ++ S ++ ⟨#[120, 62]⟩) 0 S w (by simp only [ByteArray.size_append]; omega) (by omega) (by decide) h)
          rw [f1] at H1
          rw [f5] at H2
          rw [f2] at H3
          rw [f3] at H4
          rw [f4] at H5
          rw [show (⟨a0.data.toList.toArray⟩ : ByteArray) = a0 from str_ext (by rw [List.toList_toArray])] at H2
          rw [show ((a0.size + 2 + S.size : Nat) : Int) = (a0.size : Int) + 2 + (S.size : Int) by omega] at H4
          rw [show ((a0.size + 4 + S.size : Nat) : Int) = (a0.size : Int) + 4 + (S.size : Int) by omega] at H5
          have hsz' : ∀ X Y : ByteArray, X.size ≤ 2000 → Y.size ≤ 2000 → ¬ 9223372036854775807 < X.size + Y.size := fun X Y h1 h2 => by omega
          have hS60 : S.size ≤ 60 := by omega
          have g1 := hsz' a0 ⟨#[60, 47]⟩ (by omega) (by omega)
          have g2 := hsz' (a0 ++ ⟨#[60, 47]⟩) S (by simp only [ByteArray.size_append]; omega) (by omega)
          have g3 := hsz' (a0 ++ ⟨#[60, 47]⟩ ++ S) ⟨#[62]⟩ (by simp only [ByteArray.size_append]; omega) (by omega)
          have g4 := hsz' (a0 ++ ⟨#[60, 47]⟩ ++ S ++ ⟨#[62]⟩) a0 (by simp only [ByteArray.size_append]; omega) (by omega)
          have g5 := hsz' (a0 ++ ⟨#[60, 47]⟩ ++ S) ⟨#[120, 62]⟩ (by simp only [ByteArray.size_append]; omega) (by omega)
          have HSZ := Lib.hid hsz
          clear o1 o2 o3 l1 l2 hne f1 f2 f3 f4 f5 z2 z3 z4 k1 k2 k3 hsz' hbw hi hlt hsz
          go_wp2_with (fail)
          refine (H1 _ (HW.out.below HBW.out)).out.mono ?_
          rintro e w2 ⟨rfl, c2⟩
          have B2 := Lib.hid (HBW.out.trans (c2.mono HBW.out.size))
          clear c2
          go_wp2_with (fail)
          refine (H2 _ (HW.out.below B2.out)).out.mono ?_
          rintro e w3 ⟨rfl, c3⟩
          have B3 := Lib.hid (B2.out.trans (c3.mono B2.out.size))
          clear c3
          go_wp2_with (fail)
          refine (H3 _ (HW.out.below B3.out)).out.mono ?_
          rintro e w4 ⟨rfl, c4⟩
          have B4 := Lib.hid (B3.out.trans (c4.mono B3.out.size))
          clear c4
          go_wp2_with (fail)
          refine (H4 _ (HW.out.below B4.out)).out.mono ?_
          rintro e w5 ⟨rfl, c5⟩
          have B5 := Lib.hid (B4.out.trans (c5.mono B4.out.size))
          clear c5
          go_wp2_with (fail)
          refine (H5 _ (HW.out.below B5.out)).out.mono ?_
          rintro e w6 ⟨rfl, c6⟩
          have B6 := Lib.hid (B5.out.trans (c6.mono B5.out.size))
          clear c6
          go_wp2
          go_ret
          exact ⟨ret_bool (by simp), B6.out⟩

theorem laid_met (os : Os) : laidMet Tryd.prog Rows.rawWrittenRow.laid ((laidWorld os).forCall (fun _ _ => 0) ⟨#[], #[.string ByteArray.empty, .slice none 0 0, .bool false], []⟩).memory :=
  laidMet_of_run' 8 (by kernel_rfl) (by kernel_rfl)
theorem reads (os : Os) {H : Type} (enc : TypeId × Value → H) : ∃ places, DataW.whole enc Tryd.prog ((laidWorld os).forCall (fun _ _ => 0) ⟨#[], #[.string ByteArray.empty, .slice none 0 0, .bool false], []⟩).memory Tryd.f4.params.toList Rows.rawWrittenSpec.vars false (#[.string ByteArray.empty, .slice none 0 0, .bool false] : Array Value).toList 8 = some ([.lit (.string []), .nil, .lit (.bool false)], [], places) :=
  ⟨[], by kernel_rfl⟩
set_option maxRecDepth 100000 in
theorem lifted (os : Os) (started : os.Started) (H : Type) (enc : TypeId × Value → H) (F : Stop.Interp) :
    ReturnsInHanded {} Tryd.checked os 4 .any ((OpenSpec.ofChange Rows.rawWrittenSpec).preRow enc Tryd.prog Tryd.f4 Rows.rawWrittenRow.domain false Rows.rawWrittenRow.laid) (((OpenSpec.ofChange Rows.rawWrittenSpec).at F).post enc Tryd.prog Tryd.f4 false true false false) := by
  obtain ⟨places, hx⟩ := reads os enc
  refine returnsInHanded_of_row (C := Tryd.checked) (s := OpenSpec.ofChange Rows.rawWrittenSpec) own started (by kernel_rfl) Tryd.func4
    (witness_row_at (enc := enc) (C := Tryd.checked) false (laidWorld os) #[.string ByteArray.empty, .slice none 0 0, .bool false] rfl (by kernel_rfl) (by kernel_rfl) (by kernel_rfl)
      (OpenSpec.preRow_of_cond 8 hx (by kernel_rfl) (fun k hk => by cases hk) (by kernel_rfl) (laid_met os))) ?_
  intro W base args ds gs before hval0 hW _ _ _ hL hsh _
  have hval : ∀ (j : Nat) t v, Tryd.f4.params[j]? = some t → args[j]? = some v → Value.okWide Tryd.prog W .any base t v := hval0
  have hW' := hW
  obtain ⟨p, q, hA0, hV, rfl, hfz, hnd⟩ := hW
  have hA : DataW.TrodAll enc Tryd.prog W 0 (fun _ => true) true Tryd.f4.params.toList args.toList ds p := hA0
  rw [Tryd.params4] at hA hval
  obtain ⟨v0, vs0, d0, ds0, p0, q0, hargs, rfl, rfl, h0, r0⟩ := trodAll_cons hA
  obtain ⟨v1, vs1, d1, ds1, p1, q1, rfl, rfl, rfl, h1, r1⟩ := trodAll_cons r0
  obtain ⟨v2, vs2, d2, ds2, p2, q2, rfl, rfl, rfl, h2, r2⟩ := trodAll_cons r1
  obtain ⟨rfl, rfl, rfl⟩ := trodAll_nil r2
  obtain rfl : args = #[v0, v1, v2] := by cases args; simp_all
  obtain ⟨rfl, rfl⟩ := trodVars_none hV
  obtain ⟨a0, rfl, rfl, rfl, w0⟩ := open_string Tryd.underlying9 (hval 0 9 v0 rfl rfl) h0
  obtain ⟨a1, len1, cap1, rfl⟩ := okWide_slice Tryd.underlying27 (hval 1 27 v1 rfl rfl)
  have k1 := h1
  have lt1 : ∀ x ∈ p1, x.block < W.heap.size := by obtain ⟨m, hm⟩ := k1; exact DataW.trod_lt m _ _ _ hm
  obtain ⟨z1, w1⟩ : ∃ zs, IsRow .u8 W a1 len1 cap1 zs := by
    obtain ⟨fuel, hf⟩ := h1
    rcases open_ints Tryd.underlying27 Tryd.underlying5 (by kernel_rfl) hf with ⟨hcs, _⟩ | ⟨x, l, c, zs, hcs, _, hl, hm, hz, _, hcell, hwz⟩
    · simp [Value.cells] at hcs
      obtain ⟨rfl, rfl, rfl⟩ := hcs
      exact ⟨[], .inl ⟨rfl, rfl, rfl, rfl⟩⟩
    · simp [Value.cells] at hcs
      obtain ⟨rfl, rfl, rfl⟩ := hcs
      exact ⟨zs, .inr ⟨_, rfl, hl, hm, by simpa using hz, hcell, hwz⟩⟩
  obtain ⟨a2, rfl, rfl, rfl⟩ := open_bool Tryd.underlying4 (hval 2 4 v2 rfl rfl) h2
  clear hA0 hval0
  refine (walk a0 a1 len1 cap1 z1 a2 W (tabAt_of hL hsh) w0 w1).mono fun e W' ⟨he, bel⟩ => ?_
  subst he
  exact ⟨_, rfl, _, _, _, [], _, [], hW', trodAll_mk1 (shut_bool Tryd.underlying4 _), (trodAll_cons_mk (shut_string Tryd.underlying9 w0) (trodAll_cons_mk (Below.trod laidOut (by kernel_rfl) (of_decide_eq_true (by kernel_rfl)) k1 bel lt1) (trodAll_cons_mk (shut_bool Tryd.underlying4 _) trodAll_mk0))), rfl, bel.frame _, fun h => by cases h⟩

theorem said : Rows.RawWrittenSaid :=
  OpenClaim.holds_of_cond 4 Tryd.f4 rfl rfl rfl rfl rfl rfl rfl ⟨rfl, rfl, rfl, rfl, rfl⟩ rfl rfl rfl rfl rfl (by kernel_rfl) Tryd.func4 (by kernel_rfl)
    (of_decide_eq_true (by kernel_rfl)) (by unfold Func.isWrapper; first | (rw [if_pos (by decide +kernel)]; kernel_rfl) | (rw [if_neg (by decide +kernel)]; exact ⟨rfl, rfl⟩))
    (fun os started H enc _ F => by rw [OpenClaim.pre_eq_preRow]; exact lifted os started H enc F)
theorem plain (f : FuncId) (fn : Func) (hf : Tryd.pinned.checked.prog.funcNamed "flail/flaillaw12.RawWritten" = some f) (hfn : Tryd.pinned.checked.prog.funcs[f]? = some fn) :
    true = Tryd.pinned.checked.prog.looks [] ∧ ∀ (j : Nat) t, fn.params[j]? = some t → Tryd.pinned.checked.prog.wantsStandIn t = false := by
  obtain rfl : f = 4 := Option.some.inj ((show Tryd.prog.funcNamed "flail/flaillaw12.RawWritten" = some 4 by kernel_rfl).symm.trans hf) |>.symm
  obtain rfl : fn = Tryd.f4 := (Option.some.inj (Tryd.func4.symm.trans hfn)).symm
  refine ⟨by kernel_rfl, fun j t ht => ?_⟩
  rw [Tryd.params4] at ht
  have hm : t ∈ [9, 27, 4] := by simpa using Array.mem_of_getElem? ht
  have hall : ([9, 27, 4].all fun u => !Tryd.prog.wantsStandIn u) = true := by kernel_rfl
  exact (show Tryd.prog.wantsStandIn t = false by simpa using List.all_eq_true.1 hall t hm)
/-- the statement: the row's card -/
theorem proved : Rows.RawWrittenCardSaid :=
  Claim7.holds_tied_plain_at .later [] _ _ _ _ said (fun _ h => by cases h) (by kernel_rfl) (fun _ h => by cases h) rawWritten_row_tie rfl ⟨rfl, rfl⟩ (by kernel_rfl) rfl plain (by kernel_rfl)
end Go.Proofs.YtameddkmbfcnoaaDoor.rawWritten
