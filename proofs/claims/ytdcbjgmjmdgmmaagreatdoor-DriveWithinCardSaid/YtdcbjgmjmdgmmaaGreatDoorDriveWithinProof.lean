/-
  The law DriveWithin of flail/flaillaw16 answers true for every input, and changes nothing that was there. Condition, which the card ties to the program's text: when the call begins, the package variables that the row lists hold what that text lays in them (math/bits.deBruijn32tab, math/bits.deBruijn64tab, internal/strconv.uint64pow10, strconv.ErrRange, strconv.ErrSyntax, flail/number.others).
-/
import Derived.Test.YtdcbjgmjmdgmmaaGreatDoorRows
import Derived.Test.YtdcbjgmjmdgmmaaGreatDoorDrvAwake
import Derived.Test.YtdcbjgmjmdgmmaaGreatDoorTkCode
import Derived.Test.YtdcbjgmjmdgmmaaGreatDoorCards
import Derived.Test.YtdcbjgmjmdgmmaaGreatDoorP6
import Derived.WalkKit
import Derived.ProofKit
import Derived.ChangeOld
import Derived.Below
import Derived.OpenShut
import Derived.ShutString
namespace Go.Proofs.YtdcbjgmjmdgmmaaGreatDoor.driveWithin
open Go.ChangeShapes Go.WideShapes Go.ChangeAt Go.RowKit
open Go.ChangeMaps (open_string shut_string)
set_option linter.unusedVariables false      -- a walk need not use every 'w<i>' (that an integer argument fits its kind)

theorem own : ownKnob Tryz.prog.godebug = none := by kernel_rfl

def nmCells11 : Array Value := #[.string ⟨#[116, 105, 116, 108, 101]⟩, .string ⟨#[116, 101, 120, 116, 97, 114, 101, 97]⟩, .string ⟨#[115, 116, 121, 108, 101]⟩, .string ⟨#[120, 109, 112]⟩, .string ⟨#[105, 102, 114, 97, 109, 101]⟩, .string ⟨#[110, 111, 101, 109, 98, 101, 100]⟩, .string ⟨#[110, 111, 102, 114, 97, 109, 101, 115]⟩, .string ⟨#[110, 111, 115, 99, 114, 105, 112, 116]⟩, .string ⟨#[115, 99, 114, 105, 112, 116]⟩, .string ⟨#[112, 108, 97, 105, 110, 116, 101, 120, 116]⟩, .string ⟨#[112]⟩]
theorem nm_cell11 (i : Nat) (h : i < nmTab.length) : nmCells11[i]? = some (.string ⟨nmTab[i].toArray⟩) := by
  have h10 : i < 11 := h
  match i, h10 with
  | 0, _ => rfl
  | 1, _ => rfl
  | 2, _ => rfl
  | 3, _ => rfl
  | 4, _ => rfl
  | 5, _ => rfl
  | 6, _ => rfl
  | 7, _ => rfl
  | 8, _ => rfl
  | 9, _ => rfl
  | 10, _ => rfl
theorem within_list (N s : ByteArray) : (⟨#[60]⟩ ++ N ++ ⟨#[62]⟩ ++ s).data.toList = 60 :: (N.data.toList ++ 62 :: s.data.toList) := by
  simp [ByteArray.data_append]
/-- a literal of one token, as a row -/
theorem rowTk_one (w : World) (base g : Nat) (hg : w.heap.size = g) (hb : base ≤ g) (q : TkV) (hq : q.t.attrs = []) (hr : IsRows w q.ad q.len q.cap q.t.attrs) : RowTk (w.alloc (.cells q.five.toArray 30)) base (.slice (some ⟨g, 0, none⟩) 1 1) [q] := by
  subst hg
  have h := OwnsG.new w q.five.toArray (0, 0) base 30 5 1 1 hb (.inl (Nat.zero_le _)) (Nat.le_refl _) (by simp [maxLen]) rfl
  refine ⟨by simpa [cellsT_one, TkV.five] using h, fun u hu => ?_⟩
  rw [List.mem_singleton.1 hu]
  exact ⟨hr.below ((Below.refl _ w).alloc (Nat.le_refl _) _) (Nat.le_refl _), .inl hq⟩
/-- attributes in old memory don't lie in a newer row -/
theorem attOk_before {w : World} {v : Value} {q : TkV} (hr : IsRows w q.ad q.len q.cap q.t.attrs) (hv : ∀ k, v.ownBlock = some k → w.heap.size ≤ k) : AttOk w v q := by
  refine ⟨hr, ?_⟩
  by_cases he : q.t.attrs = []
  · exact .inl he
  · refine .inr fun k hk e => ?_
    obtain ⟨x, hx, c1, -⟩ := hr.2.2.2 0 (List.length_pos_iff.2 he)
    have hlt := block_lt_of_cell c1
    rw [show (x.add (0 * 2)).block = x.block by unfold Addr.add; split <;> rfl] at hlt
    rw [hx] at hk
    have h1 : x.block = k := by simpa [Value.ownBlock] using hk
    have := hv k e
    omega
/-- append from whatever source, at an operation that a test guards -/
theorem wpList_append_guarded {P : Program} (w : World) {ops : Array Oper} {rest : List Oper} {o : Oper} {a : Act} {Q : Exit → Act → World → Prop} (hgd : Region.wanted o (yielded ops a.tmps) = true) (sl x : Operand) (t tx : TypeId)
    (ho : o.op = .call { callee := .builtin .append, args := #[sl, x], argTypes := #[t, tx] })
    (base : Nat) (e : TypeId) (i : TypeInfo) (z : Value) (size bytes : Nat) (ht : P.underlying t = some (.slice e)) (hi : P.info? e = some i) (hz : i.zero = some z)
    (hsize : i.size = size) (hby : i.bytes = bytes) (hzs : z.cells.size = size)
    (v : Value) (n : Nat) (xs : List Value) (hv : a.eval sl = v) (hown : OwnsG w base e size v n xs) (xv : Value) (m : Nat) (news : List Value) (hx : a.eval x = xv) (hs : Src P size tx xv m news w)
    (h63 : n + m ≤ maxLen) (hbytes : (n + m) * bytes ≤ 140737488355328) (hbase : base ≤ w.heap.size)
    (h : ∀ v' w', OwnsG w' base e size v' (n + m) (xs ++ news) → w.grownBy w' v.ownBlock → (v'.ownBlock = v.ownBlock ∨ v'.ownBlock = some w.heap.size) → wpList P ops Q rest (a.put o.dst v') w') : wpList P ops Q (o :: rest) a w := by
  refine wpList_step fun K hK => ?_
  rw [if_pos hgd]
  obtain ⟨v', w', hr, h2, h3, h4⟩ := run_append_G (P := P) w base t tx o.type e i z size bytes ht hi hz hsize hby hzs v n xs hown xv m news hs h63 hbytes hbase
  unfold Oper.wp execOp
  simp only [ho, resolve, invoke, builtin, Sem.run_bind, Sem.run_pure, Result.andThen_ok, List.map_toArray, List.map_cons, List.map_nil, hv, hx, hr]
  exact hK _ _ (h v' w' h2 h3 h4)
theorem isToks_src_old {w w' : World} {B : Nat} {a : Option Addr} {len cap : Nat} {L : List TokP} (h : IsToksN w B a len cap L) (hb : Below w.heap.size w w') :
    ∃ Q : List TkV, Q.map TkV.t = L ∧ Q.length = len ∧ Src Tryz.prog 5 24 (.slice a len cap) len (cellsT Q) w' ∧ ∀ q ∈ Q, IsRows w q.ad q.len q.cap q.t.attrs := by
  cases a with
  | none =>
    have hnil : L = [] := by
      cases L with
      | nil => rfl
      | cons t L =>
        obtain ⟨x, _, _, _, h, _⟩ := h.2.2.2 0 (Nat.succ_pos _)
        cases h
    subst hnil
    obtain rfl : len = 0 := h.1.symm
    exact ⟨[], rfl, rfl, Src.ofNil _ Tryz.underlying24 _, fun q hq => by cases hq⟩
  | some x =>
    obtain ⟨Q, h1, h2, h3, h4⟩ := isToks_raw h
    exact ⟨Q, h1, h2, Src.ofSlice _ Tryz.underlying24 x len cap _ (by rw [cellsT_len, h2]) (fun j u hj => (hb.cell (by have := block_lt_of_cell (h3 j u hj); exact this)).trans (h3 j u hj)) (five_ones Q), fun q hq => (h4 q hq).1⟩
theorem tok_len_any (st : Int) (nm s : Txt) : (tokL st nm s).length ≤ s.length + 2 := by
  unfold tokL
  split
  · refine Nat.le_trans (join_len _) ?_
    have h1 : (restK st nm s).1.length ≤ 2 := by
      have he := emit_len (saysR st nm s)
      unfold restK
      split
      · split
        · simp only; omega
        · split
          · cases tagR (s.drop (endN15 st nm s)) with
            | none => simp only; omega
            | some r => simp only [List.length_append, List.length_cons, List.length_nil]; omega
          · simp only; omega
      · exact Nat.zero_le _
    have h2 := toks_len (s.drop (restK st nm s).2).length (s.drop (restK st nm s).2)
    rw [List.length_append]
    rw [List.length_drop] at h2
    show _ + (toksR _ _).length ≤ _
    rw [List.length_drop]
    omega
  · exact Nat.zero_le _
set_option maxRecDepth 100000 in
set_option maxHeartbeats 8000000 in
theorem walk (a0 : ByteArray) (a1 : Int) (w0 : a0.size ≤ maxLen) (w1 : (Lit.int .u8 a1).wf = true) (w : World) (hT : LaidAt w) :
    Calls Tryz.prog 6 #[.string a0, .int .u8 a1] w fun e w' => e = .returned (.bool true) ∧ Below w.heap.size w w' := by
  have hb1 : 0 ≤ a1 ∧ a1 ≤ 255 := by simpa [Lit.wf, IntKind.min, IntKind.max, IntKind.signed, IntKind.bits] using w1
  obtain ⟨h10, h11⟩ := hb1
  clear w0 w1
  have HW := Lib.hid hT
  clear hT
  by_cases hlen : 300 < a0.size
  · have hc : decide ((300 : Int) < (a0.size : Int)) = true := decide_eq_true (by omega)
    clear hlen
    go_enter Tryz.func6, Tryz.ntmps6
    go_wp2_with (fail)
    refine (drvAwake_any w HW.out).mono ?_
    rintro e w1 ⟨rfl, c1⟩
    go_wp2
    go_ret
    exact ⟨rfl, c1⟩
  have d0 : decide ((300 : Int) < (a0.size : Int)) = false := decide_eq_false (by omega)
  have hs0 : a0.size ≤ 300 := by omega
  obtain ⟨i0, hi0, hz0, hz1, hz2⟩ := info_parts info_tok
  obtain ⟨R, hR⟩ : ∃ R : Nat, a1 % 11 = (R : Int) := ⟨(a1 % 11).toNat, by omega⟩
  have hR2 : R < 11 := by omega
  have hRT : R < nmTab.length := hR2
  have hcell0 := nm_cell11 R hRT
  have hmem : nmTab[R] ∈ nmTab := List.getElem_mem hRT
  obtain ⟨nm, hnm⟩ : ∃ nm, nmTab[R] = nm := ⟨_, rfl⟩
  rw [hnm] at hcell0 hmem
  have hn9 : nm.length ≤ 9 := (show ∀ n ∈ nmTab, n.length ≤ 9 by decide) nm hmem
  obtain ⟨N, hN⟩ : ∃ N : ByteArray, (⟨nm.toArray⟩ : ByteArray) = N := ⟨_, rfl⟩
  have hN2 : N.data.toList = nm := by rw [← hN, List.toList_toArray]
  rw [hN] at hcell0
  have hNs : N.size ≤ 9 := by rw [Lib.size_eq, hN2]; exact hn9
  have HP := fun w h => Lib.hid (drvState_any N w (by omega) h)
  rw [hN2] at HP
  obtain ⟨st, hst⟩ : ∃ st, drvN nm = st := ⟨_, rfl⟩
  have hsr := st_range nm
  have H1 := fun w h => Lib.hid (tokTok_any a0 (drvN nm) N w (by omega) (by omega) (by omega) h)
  have H2 := fun w h => Lib.hid (drvDrive_any (⟨#[60]⟩ ++ N ++ ⟨#[62]⟩ ++ a0) w (by
    rw [ByteArray.size_append, ByteArray.size_append, ByteArray.size_append, show (ByteArray.mk #[60]).size = 1 from rfl, show (ByteArray.mk #[62]).size = 1 from rfl]; omega) h)
  rw [within_list, hN2] at H2
  rw [hN2] at H1
  have HD := Lib.hid (drv_within nm a0.data.toList hmem)
  have hTl := tok_len_any (drvN nm) nm a0.data.toList
  rw [← Lib.size_eq] at hTl
  have HNL := Lib.hid (show ∀ t ∈ tokL (drvN nm) nm a0.data.toList, t.name.length ≤ 1048576 from fun t h => by have := tokL_name _ _ _ t h; rw [← Lib.size_eq] at this; omega)
  obtain ⟨T, hT⟩ : ∃ T, tokL (drvN nm) nm a0.data.toList = T := ⟨_, rfl⟩
  obtain ⟨D, hD⟩ : ∃ D, drvL (60 :: (nm ++ 62 :: a0.data.toList)) = D := ⟨_, rfl⟩
  rw [hT] at H1 HD hTl HNL
  rw [hD] at H2 HD
  rw [hst] at HP H1
  have p1 : ¬ 9223372036854775807 < 1 + N.size := by omega
  have p2 : ¬ 9223372036854775807 < 1 + N.size + 1 := by omega
  have p3 : ¬ 9223372036854775807 < 1 + N.size + 1 + a0.size := by omega
  have HN := Lib.hid hN
  have HN2 := Lib.hid hN2
  obtain ⟨hlt', hget⟩ := List.getElem?_eq_some_iff.1 (show ([.string ⟨#[116, 105, 116, 108, 101]⟩, .string ⟨#[116, 101, 120, 116, 97, 114, 101, 97]⟩, .string ⟨#[115, 116, 121, 108, 101]⟩, .string ⟨#[120, 109, 112]⟩, .string ⟨#[105, 102, 114, 97, 109, 101]⟩, .string ⟨#[110, 111, 101, 109, 98, 101, 100]⟩, .string ⟨#[110, 111, 102, 114, 97, 109, 101, 115]⟩, .string ⟨#[110, 111, 115, 99, 114, 105, 112, 116]⟩, .string ⟨#[115, 99, 114, 105, 112, 116]⟩, .string ⟨#[112, 108, 97, 105, 110, 116, 101, 120, 116]⟩, .string ⟨#[112]⟩] : List Value)[R]? = some (.string N) from by rw [← hcell0, ← Array.getElem?_toList]; rfl)
  clear hcell0
  clear hT hD hlen hst hsr hnm hN hN2 hn9 hmem
  go_enter Tryz.func6, Tryz.ntmps6
  go_wp2_with (fail)
  refine (drvAwake_any w HW.out).mono ?_
  rintro e w1 ⟨rfl, c1⟩
  have B1 := Lib.hid c1
  have hbs1 := c1.size
  clear c1
  have B2 := Lib.hid (B1.out.alloc hbs1 (.cells #[.string ⟨#[116, 105, 116, 108, 101]⟩, .string ⟨#[116, 101, 120, 116, 97, 114, 101, 97]⟩, .string ⟨#[115, 116, 121, 108, 101]⟩, .string ⟨#[120, 109, 112]⟩, .string ⟨#[105, 102, 114, 97, 109, 101]⟩, .string ⟨#[110, 111, 101, 109, 98, 101, 100]⟩, .string ⟨#[110, 111, 102, 114, 97, 109, 101, 115]⟩, .string ⟨#[110, 111, 115, 99, 114, 105, 112, 116]⟩, .string ⟨#[115, 99, 114, 105, 112, 116]⟩, .string ⟨#[112, 108, 97, 105, 110, 116, 101, 120, 116]⟩, .string ⟨#[112]⟩] 9))
  clear hbs1
  go_wp2_with (fail)
  refine (HP _ (HW.out.below B2.out)).out.mono ?_
  rintro e w2 ⟨rfl, c2⟩
  have B3 := Lib.hid (B2.out.trans (c2.mono B2.out.size))
  clear c2 hget
  go_wp2_with (fail)
  refine (H1 _ (HW.out.below B3.out)).out.mono ?_
  rintro e w3 ⟨x, l, c, rfl, t3, c3⟩
  have B4 := Lib.hid (B3.out.trans (c3.mono B3.out.size))
  have hll := t3.1
  have hm := t3.2.2.1
  have hlc := t3.2.1
  unfold maxLen at hm
  have T3 := Lib.hid t3
  clear c3 t3
  go_wp2
  clear d0 hR
  go_loopw [9] (fun v wr => ∃ i : Nat, v = .int .i64 (i : Int) ∧ i ≤ l ∧ Below w3.heap.size w3 wr ∧ Hid (∀ j (h : j < T.length), j < i → ¬ SpecT T[j])) (fun v _ => l - (intOf v).toNat)
  case atStart => exact ⟨0, rfl, Nat.zero_le _, Below.refl _ _, Lib.hid fun j _ h => absurd h (by omega)⟩
  case round =>
    obtain ⟨i, rfl, hi, hb, HS⟩ := hrel
    have HB := Lib.hid hb
    have B5 := Lib.hid (B4.out.trans (hb.mono B4.out.size))
    clear hb
    by_cases hlt : i < l
    · have hiT : i < T.length := by omega
      obtain ⟨x, ad, ln, cp, rfl, xc, -⟩ := T3.out.2.2.2 i hiT
      obtain ⟨x0, x1, -, -, -⟩ := (xc.below HB.out (Nat.le_refl _)).asked
      simp only at x0 x1
      obtain ⟨t, ht⟩ : ∃ t, T[i]'hiT = t := ⟨_, rfl⟩
      have hNL := HNL.out (T[i]'hiT) (List.getElem_mem hiT)
      rw [ht] at x0 x1 hNL
      have HNB := Lib.hid hNL
      clear hNL
      have HT' := Lib.hid ht
      obtain ⟨nm', hnm⟩ : ∃ nm : ByteArray, (⟨t.name.toArray⟩ : ByteArray) = nm := ⟨_, rfl⟩
      have hnm2 : nm'.data.toList = t.name := by rw [← hnm, List.toList_toArray]
      rw [hnm] at x1
      obtain ⟨K, hK⟩ : ∃ K, t.kind = K := ⟨_, rfl⟩
      rw [hK] at x0
      have HN' : Hid (¬ SpecT t → ∀ j (h : j < T.length), j < i + 1 → ¬ SpecT T[j]) := Lib.hid fun hn j h hj => by
        rcases Nat.lt_or_eq_of_le (Nat.le_of_lt_succ hj) with h1 | rfl
        · exact HS.out j h h1
        · rw [HT'.out]; exact hn
      clear xc ht hnm p1 p2 p3
      by_cases hk1 : K = 1
      · have HST := fun w h => Lib.hid (drvState_any nm' w (by rw [Lib.size_eq, hnm2]; have := HNB.out; omega) h)
        rw [hnm2] at HST
        obtain ⟨st', hst⟩ : ∃ st, drvN t.name = st := ⟨_, rfl⟩
        rw [hst] at HST
        by_cases h0 : st' = 0
        · have HN1 := Lib.hid (HN'.out (fun e => e.2 (hst.trans h0)))
          subst h0
          subst hk1
          clear hst hnm2 hK
          go_wp2_with (fail)
          refine (HST _ (HW.out.below B5.out)).out.mono ?_
          rintro e w6 ⟨rfl, c6⟩
          have HB6 := Lib.hid (HB.out.trans (c6.mono HB.out.size))
          clear c6
          go_wp2
          go_roundw
          case rel => exact ⟨i + 1, by go_num, by omega, HB6.out, HN1⟩
          case measure => simp [intOf]; omega
        · have hst0 : (st' == 0) = false := beq_eq_false_iff_ne.2 h0
          subst hk1
          clear hst hnm2 hK h0
          go_wp2_with (fail)
          refine (HST _ (HW.out.below B5.out)).out.mono ?_
          rintro e w6 ⟨rfl, c6⟩
          have B6 := Lib.hid (B5.out.trans (c6.mono B5.out.size))
          clear c6
          go_wp2
          go_ret
          exact ⟨rfl, B6.out⟩
      · have bk : (K == 1) = false := beq_eq_false_iff_ne.2 hk1
        have HN1 := Lib.hid (HN'.out (fun e => hk1 (hK.symm.trans e.1)))
        clear hnm2 hK hk1
        go_wp2
        go_roundw
        case rel => exact ⟨i + 1, by go_num, by omega, HB.out, HN1⟩
        case measure => simp [intOf]; omega
    · have hD : D = (⟨1, nm, [], [], false⟩ : TokP) :: T := HD.out (fun t ht => by
        obtain ⟨j, hj, rfl⟩ := List.getElem_of_mem ht
        exact HS.out j hj (by omega))
      have HDD := Lib.hid hD
      have hl3 : l ≤ 2000000 := by omega
      clear hD HD HS
      go_wp2_with (fail)
      refine (H2 _ (HW.out.below B5.out)).out.mono ?_
      rintro e w5 ⟨y, l', c', rfl, t5, c5⟩
      have B6 := Lib.hid (B5.out.trans (c5.mono B5.out.size))
      have hb6 := B6.out.size
      have TD := Lib.hid t5.toks
      have T5 := Lib.hid ((T3.out.below HB.out (Nat.le_refl _)).below c5 (Nat.le_refl _))
      clear c5 t5 H2
      have R0 : Hid (RowTk (w5.alloc (.cells #[.int .i64 1, .string N, .string ⟨#[]⟩, .slice none 0 0, .bool false] 30)) w.heap.size (.slice (some ⟨w5.heap.size, 0, none⟩) 1 1) [(⟨⟨1, nm, [], [], false⟩, none, 0, 0⟩ : TkV)]) := Lib.hid (by
        rw [← HN.out]
        exact rowTk_one w5 w.heap.size _ rfl hb6 ⟨⟨1, nm, [], [], false⟩, none, 0, 0⟩ rfl (isRows_none _))
      have hbel := (Below.refl w5.heap.size w5).alloc (Nat.le_refl _) (.cells #[.int .i64 1, .string N, .string ⟨#[]⟩, .slice none 0 0, .bool false] 30)
      have HBEL := Lib.hid hbel
      have B7 := Lib.hid (B6.out.trans (hbel.mono hb6))
      have hb7 := B7.out.size
      obtain ⟨Q1, hq1, hl1, hsrc, hqr⟩ := isToks_src_old T5.out hbel
      have S7 := Lib.hid hsrc
      have K7 := Lib.hid (show ∀ q ∈ Q1, AttOk (w5.alloc (.cells #[.int .i64 1, .string N, .string ⟨#[]⟩, .slice none 0 0, .bool false] 30)) (.slice (some ⟨w5.heap.size, 0, none⟩) 1 1) q from fun q hq => (attOk_before (hqr q hq) (fun k hk => by
        have : w5.heap.size = k := by simpa [Value.ownBlock] using hk
        omega)).below hbel)
      have HQ1 := Lib.hid hq1
      have hq1l : Q1.length ≤ 1000000 := by rw [hl1]; omega
      subst hl1
      clear hsrc hqr hq1 hbel
      go_wp2_with (at_builtin; refine wpList_append_guarded _ (by first | rfl | (simp [Region.wanted, yielded]; done)) _ _ 24 24 rfl w.heap.size 30 i0 _ 5 72 Tryz.underlying24 hi0 hz0 hz1 hz2 rfl _ 1 (cellsT [(⟨⟨1, nm, [], [], false⟩, none, 0, 0⟩ : TkV)]) rfl R0.out.1 _ Q1.length (cellsT Q1) rfl S7.out ?c1 ?c2 ?c3 ?_)
      case c1 => first | (simp [maxLen]; omega) | omega
      case c2 => first | omega | (simp; omega)
      case c3 => first | omega | (simp; omega)
      intro v8 w8 hown1 hgr1 hat1
      have P8 := Lib.hid (rowTk_push (Q := [(⟨⟨1, nm, [], [], false⟩, none, 0, 0⟩ : TkV)]) (R := Q1) R0.out K7.out B7.out (Nat.le_refl _) (by first | exact hown1 | simpa using hown1) hgr1 (by simpa using hat1))
      have TD8 := Lib.hid (TD.out.below (HBEL.out.grown hgr1 (by simp) (fun k hk => by
        have : w5.heap.size = k := by simpa [Value.ownBlock] using hk
        omega)) (Nat.le_refl _))
      clear hown1 hgr1 hat1
      have R8 := Lib.hid P8.out.1
      have B8 := Lib.hid P8.out.2
      obtain ⟨y', d, hv, ty⟩ := R8.out.told
      obtain ⟨n8, hn8⟩ : ∃ n, ([(⟨⟨1, nm, [], [], false⟩, none, 0, 0⟩ : TkV)] ++ Q1).length = n := ⟨_, rfl⟩
      rw [hn8] at hv ty
      subst hv
      clear hn8
      have HTY := Lib.hid ty
      clear ty
      have HA := Lib.hid (refAll_any _ _ _ _ _ _ _ _ _ TD8.out HTY.out)
      have heq : D = ([(⟨⟨1, nm, [], [], false⟩, none, 0, 0⟩ : TkV)] ++ Q1).map TkV.t := by
        rw [HDD.out, List.map_append, HQ1.out]; rfl
      rw [decide_eq_true heq] at HA
      clear heq
      go_wp2_with (fail)
      refine HA.out.mono ?_
      rintro e w10 ⟨rfl, c10⟩
      go_wp2
      go_ret
      exact ⟨ret_bool (by simp), B8.out.trans (c10.mono B8.out.size)⟩
  -- go_wp2
  -- go_ret
  -- exact ⟨rfl, by repeat (first | exact Grown.refl _ | apply Grown.drew | apply Grown.alloc)⟩

theorem laid_met (os : Os) : laidMet Tryz.prog Rows.driveWithinRow.laid ((laidWorld os).forCall (fun _ _ => 0) ⟨#[], #[.string ByteArray.empty, .int .u8 0], []⟩).memory :=
  laidMet_of_run' 8 (by kernel_rfl) (by kernel_rfl)
theorem reads (os : Os) {H : Type} (enc : TypeId × Value → H) : ∃ places, DataW.whole enc Tryz.prog ((laidWorld os).forCall (fun _ _ => 0) ⟨#[], #[.string ByteArray.empty, .int .u8 0], []⟩).memory Tryz.f6.params.toList Rows.driveWithinSpec.vars false (#[.string ByteArray.empty, .int .u8 0] : Array Value).toList 8 = some ([.lit (.string []), .lit (.int .u8 0)], [], places) :=
  ⟨[], by kernel_rfl⟩
set_option maxRecDepth 100000 in
theorem lifted (os : Os) (started : os.Started) (H : Type) (enc : TypeId × Value → H) (F : Stop.Interp) :
    ReturnsInHanded {} Tryz.checked os 6 .any ((OpenSpec.ofChange Rows.driveWithinSpec).preRow enc Tryz.prog Tryz.f6 Rows.driveWithinRow.domain false Rows.driveWithinRow.laid) (((OpenSpec.ofChange Rows.driveWithinSpec).at F).post enc Tryz.prog Tryz.f6 false true false false) := by
  obtain ⟨places, hx⟩ := reads os enc
  refine returnsInHanded_of_row (C := Tryz.checked) (s := OpenSpec.ofChange Rows.driveWithinSpec) own started (by kernel_rfl) Tryz.func6
    (witness_row_at (enc := enc) (C := Tryz.checked) false (laidWorld os) #[.string ByteArray.empty, .int .u8 0] rfl (by kernel_rfl) (by kernel_rfl) (by kernel_rfl)
      (OpenSpec.preRow_of_cond 8 hx (by kernel_rfl) (fun k hk => by cases hk) (by kernel_rfl) (laid_met os))) ?_
  intro W base args ds gs before hval0 hW _ _ _ hL hsh _
  have hval : ∀ (j : Nat) t v, Tryz.f6.params[j]? = some t → args[j]? = some v → Value.okWide Tryz.prog W .any base t v := hval0
  have hW' := hW
  obtain ⟨p, q, hA0, hV, rfl, hfz, hnd⟩ := hW
  have hA : DataW.TrodAll enc Tryz.prog W 0 (fun _ => true) true Tryz.f6.params.toList args.toList ds p := hA0
  rw [Tryz.params6] at hA hval
  obtain ⟨v0, vs0, d0, ds0, p0, q0, hargs, rfl, rfl, h0, r0⟩ := trodAll_cons hA
  obtain ⟨v1, vs1, d1, ds1, p1, q1, rfl, rfl, rfl, h1, r1⟩ := trodAll_cons r0
  obtain ⟨rfl, rfl, rfl⟩ := trodAll_nil r1
  obtain rfl : args = #[v0, v1] := by cases args; simp_all
  obtain ⟨rfl, rfl⟩ := trodVars_none hV
  obtain ⟨a0, rfl, rfl, rfl, w0⟩ := open_string Tryz.underlying9 (hval 0 9 v0 rfl rfl) h0
  obtain ⟨a1, rfl, rfl, rfl, w1⟩ := open_int Tryz.underlying5 (hval 1 5 v1 rfl rfl) h1
  clear hA0 hval0
  refine (walk a0 a1 w0 w1 W (tabAt_of hL hsh)).mono fun e W' ⟨he, bel⟩ => ?_
  subst he
  exact ⟨_, rfl, _, _, _, [], _, [], hW', trodAll_mk1 (shut_bool Tryz.underlying4 _), (trodAll_cons_mk (shut_string Tryz.underlying9 w0) (trodAll_cons_mk (shut_int Tryz.underlying5 w1) trodAll_mk0)), rfl, bel.frame _, fun h => by cases h⟩

theorem said : Rows.DriveWithinSaid :=
  OpenClaim.holds_of_cond 6 Tryz.f6 rfl rfl rfl rfl rfl rfl rfl ⟨rfl, rfl, rfl, rfl, rfl⟩ rfl rfl rfl rfl rfl (by kernel_rfl) Tryz.func6 (by kernel_rfl)
    (of_decide_eq_true (by kernel_rfl)) (by unfold Func.isWrapper; first | (rw [if_pos (by decide +kernel)]; kernel_rfl) | (rw [if_neg (by decide +kernel)]; exact ⟨rfl, rfl⟩))
    (fun os started H enc _ F => by rw [OpenClaim.pre_eq_preRow]; exact lifted os started H enc F)
theorem plain (f : FuncId) (fn : Func) (hf : Tryz.pinned.checked.prog.funcNamed "flail/flaillaw16.DriveWithin" = some f) (hfn : Tryz.pinned.checked.prog.funcs[f]? = some fn) :
    true = Tryz.pinned.checked.prog.looks [] ∧ ∀ (j : Nat) t, fn.params[j]? = some t → Tryz.pinned.checked.prog.wantsStandIn t = false := by
  obtain rfl : f = 6 := Option.some.inj ((show Tryz.prog.funcNamed "flail/flaillaw16.DriveWithin" = some 6 by kernel_rfl).symm.trans hf) |>.symm
  obtain rfl : fn = Tryz.f6 := (Option.some.inj (Tryz.func6.symm.trans hfn)).symm
  refine ⟨by kernel_rfl, fun j t ht => ?_⟩
  rw [Tryz.params6] at ht
  have hm : t ∈ [9, 5] := by first | simpa using Array.mem_of_getElem? ht | (have h := Array.mem_of_getElem? ht; simp at h ⊢; grind)
  have hall : ([9, 5].all fun u => !Tryz.prog.wantsStandIn u) = true := by kernel_rfl
  exact (show Tryz.prog.wantsStandIn t = false by simpa using List.all_eq_true.1 hall t hm)
/-- the statement: the row's card -/
theorem proved : Rows.DriveWithinCardSaid :=
  Claim7.holds_tied_plain_at .later [] _ _ _ _ said (fun _ h => by cases h) (by kernel_rfl) (fun _ h => by cases h) driveWithin_row_tie rfl ⟨rfl, rfl⟩ (by kernel_rfl) rfl plain (by kernel_rfl)
end Go.Proofs.YtdcbjgmjmdgmmaaGreatDoor.driveWithin
