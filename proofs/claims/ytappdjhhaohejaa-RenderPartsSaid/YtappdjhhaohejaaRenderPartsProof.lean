/-
  The law RenderParts of flail/flaillaw19 answers true for every input, and changes nothing that was there. No condition.
-/
import Derived.Test.YtappdjhhaohejaaRows
import Derived.Test.YtappdjhhaohejaaRenAwake
import Derived.Test.YtappdjhhaohejaaTkFew
import Derived.Test.YtappdjhhaohejaaTkArg
import Derived.Test.YtappdjhhaohejaaFloDo
import Derived.WalkKit
import Derived.ProofKit
import Derived.OpenShut
import Derived.ShutString
import Derived.ChangeOld
import Derived.Below
namespace Go.Proofs.Ytappdjhhaohejaa.renderParts
open Go.ChangeShapes Go.WideShapes Go.ChangeAt Go.RowKit
open Go.ChangeMaps (open_string shut_string)
set_option linter.unusedVariables false

theorem own : ownKnob Try.prog.godebug = none := by kernel_rfl
theorem laidOut : laidOutB Try.prog = true := by kernel_rfl

theorem part_len (A : Nat) (t : TokP) : (partT A t).length ≤ 3 := by
  unfold partT
  split
  · simp
  · split <;> simp
theorem parts_len (A : Nat) : ∀ l : List TokP, (l.flatMap (partT A)).length ≤ 3 * l.length
  | [] => by simp
  | t :: l => by
    rw [List.flatMap_cons, List.length_append, List.length_cons]
    have h1 := part_len A t
    have h2 := parts_len A l
    omega
set_option maxRecDepth 100000 in
set_option maxHeartbeats 8000000 in
theorem walk (a0 : Option Addr) (len0 cap0 : Nat) (l0 : List TokP) (a1 : Int) (w : World) (w0 : IsToks w a0 len0 cap0 l0) (w1 : (Lit.int .u8 a1).wf = true) :
    Calls Try.prog 6 #[.slice a0 len0 cap0, .int .u8 a1] w fun e w' => e = .returned (.bool true) ∧ Below w.heap.size w w' := by
  have hb1 : 0 ≤ a1 ∧ a1 ≤ 255 := by simpa [Lit.wf, IntKind.min, IntKind.max, IntKind.signed, IntKind.bits] using w1
  obtain ⟨hb10, hb11⟩ := hb1
  have hHT := (ren_here w)
  have HW := Lib.hid hHT
  clear hHT
  skip
  have HL := Lib.hid w0
  have hll := w0.1
  have hlc := w0.2.1
  have hm := w0.2.2.1
  unfold maxLen at hm
  clear w0 w1
  obtain ⟨A, hA⟩ : ∃ A : Nat, a1 = (A : Int) := ⟨a1.toNat, by omega⟩
  subst hA
  go_enter Try.func6, Try.ntmps6
  go_wp2_with (fail)
  refine (renAwake_any w HW.out).mono ?_
  rintro e w1 ⟨rfl, c1⟩
  have B1 := Lib.hid c1
  clear c1
  go_wp2_with (fail)
  refine (refFew15_any a0 len0 cap0 l0 w1 (HL.out.below B1.out (Nat.le_refl _))).mono ?_
  rintro e w2 ⟨⟨few, rfl, hfew⟩, c2⟩
  have B2 := Lib.hid (B1.out.trans (c2.mono B1.out.size))
  have HF := Lib.hid hfew
  clear c2 hfew
  cases few
  · go_wp2
    go_ret
    exact ⟨rfl, B2.out⟩
  obtain ⟨h60, h200⟩ := HF.out rfl
  have H200 := Lib.hid h200
  have M2 := Lib.hid (tokO_nil (Made.none B2.out) Lies.emp)
  clear h200 HF
  go_wp2
  go_loopw [7, 8] (fun v7 v8 wr => ∃ i : Nat, v8 = .int .i64 (i : Int) ∧ i ≤ len0 ∧ Hid (Made w wr (Sep (TokO v7 ((l0.take i).flatMap (partT A))) Emp))) (fun _ v _ => len0 - (intOf v).toNat)
  case atStart => exact ⟨0, rfl, Nat.zero_le _, M2⟩
  case round =>
    obtain ⟨i, rfl, hi, HM⟩ := hrel
    by_cases hlt : i < len0
    · have hiT : i < l0.length := by omega
      obtain ⟨x, ad, ln, cp, rfl, xc, -⟩ := HL.out.2.2.2 i hiT
      obtain ⟨x0, x1, x2, x3, x4⟩ := (xc.below HM.out.bel (Nat.le_refl _)).asked
      simp only at x0 x1 x2 x3 x4
      have hts := H200.out l0[i] (List.getElem_mem hiT)
      have hst : (l0.take (i + 1)).flatMap (partT A) = (l0.take i).flatMap (partT A) ++ partT A l0[i] := by
        rw [List.take_succ_eq_append_getElem hiT, List.flatMap_append, List.flatMap_singleton]
      have hpl : ((l0.take i).flatMap (partT A)).length ≤ 3 * i := by
        have h2 := parts_len A (l0.take i)
        rw [List.length_take] at h2
        omega
      obtain ⟨t, ht⟩ : ∃ t, l0[i] = t := ⟨_, rfl⟩
      rw [ht] at x0 x1 x2 x4 hst hts
      obtain ⟨P0, hP0⟩ : ∃ P0, (l0.take i).flatMap (partT A) = P0 := ⟨_, rfl⟩
      rw [hP0] at hst hpl HM
      obtain ⟨P1, hP1⟩ : ∃ P1, (l0.take (i + 1)).flatMap (partT A) = P1 := ⟨_, rfl⟩
      rw [hP1] at hst
      have HP1 := Lib.hid hP1
      have HST := Lib.hid hst
      obtain ⟨nm, hnm⟩ : ∃ nm : ByteArray, (⟨t.name.toArray⟩ : ByteArray) = nm := ⟨_, rfl⟩
      obtain ⟨X, hX⟩ : ∃ X : ByteArray, (⟨t.text.toArray⟩ : ByteArray) = X := ⟨_, rfl⟩
      have hXl : X.data.toList = t.text := by rw [← hX, List.toList_toArray]
      obtain ⟨K, hK⟩ : ∃ K, t.kind = K := ⟨_, rfl⟩
      obtain ⟨sf, hsf⟩ : ∃ b, t.self = b := ⟨_, rfl⟩
      rw [hnm] at x1
      rw [hX] at x2
      rw [hK] at x0
      rw [hsf] at x4
      have hXs : X.size = t.text.length := by rw [Lib.size_eq, hXl]
      rw [← hXs] at hts
      have HNM := Lib.hid hnm
      have HK := Lib.hid hK
      have HXL := Lib.hid hXl
      have HXS := Lib.hid hXs
      clear ht hP0 hP1 hst hnm hX hXl hK hsf hXs xc
      by_cases hk0 : K = 0
      · subst hk0
        have hpos := Int.emod_nonneg (A : Int) (show ((X.size : Int) + 1) ≠ 0 by omega)
        have hlt2 := Int.emod_lt_of_pos (A : Int) (show (0 : Int) < (X.size : Int) + 1 by omega)
        obtain ⟨k, hk⟩ : ∃ k : Nat, (A : Int) % ((X.size : Int) + 1) = (k : Int) := ⟨((A : Int) % ((X.size : Int) + 1)).toNat, by omega⟩
        have i1 : (k : Int) ≤ (X.size : Int) := by omega
        clear hpos hlt2
        obtain ⟨w4, hw4⟩ : ∃ w4, wr.alloc (.cells #[.int .i64 0, .string nm, .string X, .slice ad ln cp, .bool sf] 29) = w4 := ⟨_, rfl⟩
        obtain ⟨w5, hw5⟩ : ∃ w5, w4.drew = w5 := ⟨_, rfl⟩
        have HW4 := Lib.hid hw4
        have M5 := Lib.hid (show Made w w5 (Sep (TokO u7 P0) Emp) by
          rw [← hw5, ← hw4]
          exact HM.out.below ((tokO_lies u7 P0).sep Lies.emp) (((Below.refl wr.heap.size wr).alloc (Nat.le_refl _) _).drew))
        obtain ⟨Q, hQ⟩ : ∃ Q : List TkV, Q = [⟨⟨0, [], (X.extract 0 k).data.toList, [], false⟩, none, 0, 0⟩, ⟨⟨3, [], [120], [], false⟩, none, 0, 0⟩, ⟨⟨0, [], (X.extract k X.size).data.toList, [], false⟩, none, 0, 0⟩] := ⟨_, rfl⟩
        have hQc : (cellsT Q).toArray = #[.int .i64 0, .string ⟨#[]⟩, .string (X.extract 0 k), .slice none 0 0, .bool false, .int .i64 3, .string ⟨#[]⟩, .string ⟨#[120]⟩, .slice none 0 0, .bool false, .int .i64 0, .string ⟨#[]⟩, .string (X.extract k X.size), .slice none 0 0, .bool false] := by
          rw [hQ]
          simp only [cellsT, TkV.five, List.flatMap_cons, List.flatMap_nil, List.append_nil, List.cons_append, List.nil_append]
          try rw [show (⟨(X.extract 0 k).data.toList.toArray⟩ : ByteArray) = X.extract 0 k from str_ext (by rw [List.toList_toArray]), show (⟨(X.extract k X.size).data.toList.toArray⟩ : ByteArray) = X.extract k X.size from str_ext (by rw [List.toList_toArray])]
        have hQl : Q.length = 3 := by rw [hQ]; rfl
        have hQt : Q.map TkV.t = partT A t := by
          have hk' : (A : Int) % ((X.size + 1 : Nat) : Int) = (k : Int) := by rw [Int.natCast_add]; exact hk
          have e1 : A % (t.text.length + 1) = k := by rw [← HXS.out]; omega
          unfold partT
          rw [if_pos HK.out, e1, hQ]
          simp only [List.map_cons, List.map_nil]
          rw [Lib.extract_data, Lib.extract_data, HXL.out, List.drop_zero, Nat.sub_zero, List.take_of_length_le (show (t.text.drop k).length ≤ X.size - k by rw [List.length_drop, HXS.out]; exact Nat.le_refl _)]
        have M6 := Lib.hid (M5.out.below ((tokO_lies u7 P0).sep Lies.emp) ((Below.refl w5.heap.size w5).alloc (Nat.le_refl _) (.cells (cellsT Q).toArray 29)))
        have S6 := Lib.hid (Src.ofSlice (P := Try.prog) (size := 5) (w5.alloc (.cells (cellsT Q).toArray 29)) Try.underlying22 ⟨w5.heap.size, 0, none⟩ 3 3 (cellsT Q) (by rw [cellsT_len, hQl]) (fun j u hj => by
          have e1 : (⟨w5.heap.size, 0, none⟩ : Addr).add j = ⟨w5.heap.size, j, none⟩ := by simp [Addr.add]; omega
          rw [e1, cell_of_row _ _ _ _ _ _ (heap_alloc_new w5 _)]
          simpa using hj) (five_ones _))
        rw [hQc] at M6 S6
        have HW5 := Lib.hid hw5
        have HPP := Lib.hid (show P0 ++ Q.map TkV.t = P1 by rw [hQt]; exact HST.out.symm)
        have y2 : w4.cell? ⟨wr.heap.size, 2, none⟩ = some (.string X) := by rw [← hw4, cell_of_row _ _ _ _ _ _ (heap_alloc_new wr _)]; rfl
        have hlq : P0.length + Q.length ≤ 1048576 := by omega
        subst hw5
        clear hQc hQt hQ hw4
        go_wp2
        rw [HW4.out]
        go_region_law (refine step_append_tokO rfl (.tmp 37) (.tmp 49) rfl u7 P0 Emp Lies.emp (by simp [Act.eval]) M6.out (.slice (some ⟨w4.heap.size, 0, none⟩) 3 3) 3 Q (by simp [Act.eval]) S6.out hlq ?_; intro v7 w7 m7)
        all_goals
          have M7 := Lib.hid (show Made w w7 (Sep (TokO v7 P1) Emp) by rw [← HPP.out]; exact m7)
          clear m7
          go_wp2
          go_roundw
          case rel => exact ⟨i + 1, by go_num, by omega, Lib.hid (by rw [HP1.out]; exact M7.out)⟩
          case measure => simp [intOf]; omega
      · have bk0 : (K == 0) = false := beq_eq_false_iff_ne.2 hk0
        by_cases hk12 : K = 1 ∨ K = 2
        · have hK12 : (K == 1) = true ∨ ((K == 1) = false ∧ (K == 2) = true) := by
            rcases hk12 with rfl | rfl
            · exact .inl rfl
            · exact .inr ⟨rfl, rfl⟩
          have hpt : [(⟨⟨K, t.name, [], [([104, 105, 100, 100, 101, 110], [])], false⟩, some ⟨wr.heap.size + 1, 0, none⟩, 1, 1⟩ : TkV)].map TkV.t = partT A t := by
            unfold partT
            rw [HK.out, if_neg hk0, if_pos hk12]; rfl
          have HPP := Lib.hid (show P0 ++ [(⟨⟨K, t.name, [], [([104, 105, 100, 100, 101, 110], [])], false⟩, some ⟨wr.heap.size + 1, 0, none⟩, 1, 1⟩ : TkV)].map TkV.t = P1 by rw [hpt]; exact HST.out.symm)
          obtain ⟨w5, hw5⟩ : ∃ w5, (wr.alloc (.cells #[.int .i64 K, .string nm, .string X, .slice ad ln cp, .bool sf] 29)).alloc (.cells #[.string ⟨#[104, 105, 100, 100, 101, 110]⟩, .string ⟨#[]⟩] 33) = w5 := ⟨_, rfl⟩
          have M5 := Lib.hid (show Made w w5 (Sep (TokO u7 P0) Emp) by
            rw [← hw5]
            exact HM.out.below ((tokO_lies u7 P0).sep Lies.emp) (((Below.refl wr.heap.size wr).alloc (Nat.le_refl _) _).alloc (by simp) _))
          have M6 := Lib.hid (M5.out.below ((tokO_lies u7 P0).sep Lies.emp) ((Below.refl w5.heap.size w5).alloc (Nat.le_refl _) (.cells (TkV.five ⟨⟨K, t.name, [], [([104, 105, 100, 100, 101, 110], [])], false⟩, some ⟨wr.heap.size + 1, 0, none⟩, 1, 1⟩).toArray 29)))
          have S6 := Lib.hid (Src.ofSlice (P := Try.prog) (size := 5) (w5.alloc (.cells (TkV.five ⟨⟨K, t.name, [], [([104, 105, 100, 100, 101, 110], [])], false⟩, some ⟨wr.heap.size + 1, 0, none⟩, 1, 1⟩).toArray 29)) Try.underlying22 ⟨w5.heap.size, 0, none⟩ 1 1 (cellsT [(⟨⟨K, t.name, [], [([104, 105, 100, 100, 101, 110], [])], false⟩, some ⟨wr.heap.size + 1, 0, none⟩, 1, 1⟩ : TkV)]) rfl (new_five w5 _ 29) (five_one _))
          have hfive : (TkV.five ⟨⟨K, t.name, [], [([104, 105, 100, 100, 101, 110], [])], false⟩, some ⟨wr.heap.size + 1, 0, none⟩, 1, 1⟩).toArray = #[.int .i64 K, .string nm, .string ⟨#[]⟩, .slice (some ⟨wr.heap.size + 1, 0, none⟩) 1 1, .bool false] := by
            unfold TkV.five
            simp only
            rw [HNM.out]
          rw [hfive] at M6 S6
          have HW5 := Lib.hid hw5
          have hz5 : wr.heap.size + 1 + 1 = w5.heap.size := by rw [← hw5]; simp
          clear hw5 hpt hfive hk12 hk0
          rcases hK12 with hK12 | ⟨hK1, hK2⟩
          all_goals
            go_wp2_with (first
              | (rw [HW5.out]; at_builtin; refine wpList_append_tokO (by first | rfl | (simp [Region.wanted, yielded]; done)) _ _ rfl u7 P0 Emp Lies.emp rfl M6.out _ 1 _ rfl S6.out (by simp; omega) ?_; intro v7 w7 m7)
              | (at_builtin; refine wpList_append_tokO (by first | rfl | (simp [Region.wanted, yielded]; done)) _ _ rfl u7 P0 Emp Lies.emp rfl M6.out _ 1 _ rfl S6.out (by simp; omega) ?_; intro v7 w7 m7))
            have M7 := Lib.hid (show Made w w7 (Sep (TokO v7 P1) Emp) by rw [← HPP.out]; exact m7)
            clear m7
            go_wp2
            go_roundw
            case rel => exact ⟨i + 1, by go_num, by omega, Lib.hid (by rw [HP1.out]; exact M7.out)⟩
            case measure => simp [intOf]; omega
        · have bk1 : (K == 1) = false := beq_eq_false_iff_ne.2 (fun e => hk12 (.inl e))
          have bk2 : (K == 2) = false := beq_eq_false_iff_ne.2 (fun e => hk12 (.inr e))
          have hpt : partT A t = [] := by
            unfold partT
            rw [HK.out, if_neg hk0, if_neg hk12]
          have HPP := Lib.hid (show P0 = P1 by rw [HST.out, hpt, List.append_nil])
          have M5 := Lib.hid (HM.out.below ((tokO_lies u7 P0).sep Lies.emp) ((Below.refl wr.heap.size wr).alloc (Nat.le_refl _) (.cells #[.int .i64 K, .string nm, .string X, .slice ad ln cp, .bool sf] 29)))
          clear hpt hk12 hk0
          go_wp2
          go_roundw
          case rel => exact ⟨i + 1, by go_num, by omega, Lib.hid (by rw [HP1.out, ← HPP.out]; exact M5.out)⟩
          case measure => simp [intOf]; omega
    · obtain rfl : i = len0 := by omega
      have e1 : l0.take i = l0 := List.take_of_length_le (by omega)
      rw [e1] at HM
      have hpl := parts_len A l0
      obtain ⟨a7, c7, hv7, hb7⟩ := tokO_is HM.out
      have htx : ∀ t ∈ l0.flatMap (partT A), t.text.length ≤ 65536 := by
        intro t ht
        obtain ⟨u, hu, hut⟩ := List.mem_flatMap.1 ht
        have := H200.out u hu
        unfold partT at hut
        split at hut
        · simp only [List.mem_cons, List.not_mem_nil, or_false] at hut
          rcases hut with rfl | rfl | rfl
          · simp only; rw [List.length_take]; omega
          · simp
          · simp only; rw [List.length_drop]; omega
        · split at hut
          · rw [List.mem_singleton.1 hut]; simp
          · cases hut
      have e2 : renL (l0.flatMap (partT A)) = renL l0 := by unfold renL; rw [ren_parts]
      obtain ⟨N, hN⟩ : ∃ N, (l0.flatMap (partT A)).length = N := ⟨_, rfl⟩
      rw [hN] at hv7 hb7 hpl
      subst hv7
      have HB7 := Lib.hid hb7
      have HTX := Lib.hid htx
      have C1 := fun h => Lib.hid (ren_any a7 N c7 (l0.flatMap (partT A)) wr HB7.out (by omega) HTX.out h)
      have C2 := fun w' (hb : Below w.heap.size w w') h => Lib.hid (ren_any a0 i cap0 l0 w' (HL.out.below hb (Nat.le_refl _)).bare (by omega) (fun t ht => Nat.le_trans (H200.out t ht) (by decide)) h)
      rw [e2] at C1
      obtain ⟨Z, hZ⟩ : ∃ Z, (⟨(renL l0).toArray⟩ : ByteArray) = Z := ⟨_, rfl⟩
      rw [hZ] at C1 C2
      have B3 := Lib.hid HM.out.bel
      clear hZ e2 hN hb7 htx e1 hpl
      go_wp2_with (fail)
      refine (C1 (HW.out.below B3.out)).out.mono ?_
      rintro e w3 ⟨rfl, c3⟩
      have B4 := Lib.hid (B3.out.trans (c3.mono B3.out.size))
      clear c3
      go_wp2_with (fail)
      refine (C2 _ B4.out (HW.out.below B4.out)).out.mono ?_
      rintro e w4 ⟨rfl, c4⟩
      go_wp2
      go_ret
      exact ⟨ret_bool (by simp), B4.out.trans (c4.mono B4.out.size)⟩

set_option maxRecDepth 100000 in
theorem lifted (os : Os) (started : os.Started) (H : Type) (enc : TypeId × Value → H) :
    ReturnsInHanded {} Try.checked os 6 .any (Rows.renderPartsSpec.pre6 enc Try.prog Try.f6 Rows.renderPartsRow.domain false) (Rows.renderPartsSpec.post enc Try.prog Try.f6 false true false false) := by
  refine returnsInHanded_of_change (C := Try.checked) own started (by kernel_rfl) Try.func6
    (ChangeSpec.witness6 (enc := enc) (C := Try.checked) false ⟨#[], #[.slice none 0 0, .int .u8 0], []⟩ 8 (by kernel_rfl) (by kernel_rfl) (by kernel_rfl) (by kernel_rfl)) ?_
  intro W base args ds gs before hval0 hW hcnd _
  have hval : ∀ (j : Nat) t v, Try.f6.params[j]? = some t → args[j]? = some v → Value.okWide Try.prog W .any base t v := hval0
  have hW' := hW
  obtain ⟨p, q, hA0, hV, rfl, hfz, hnd⟩ := hW
  have hA : DataW.TrodAll enc Try.prog W 0 (fun _ => true) true Try.f6.params.toList args.toList ds p := hA0
  rw [Try.params6] at hA hval
  obtain ⟨v0, vs0, d0, ds0, p0, q0, hargs, rfl, rfl, h0, r0⟩ := trodAll_cons hA
  obtain ⟨v1, vs1, d1, ds1, p1, q1, rfl, rfl, rfl, h1, r1⟩ := trodAll_cons r0
  obtain ⟨rfl, rfl, rfl⟩ := trodAll_nil r1
  obtain rfl : args = #[v0, v1] := by cases args; simp_all
  obtain ⟨rfl, rfl⟩ := trodVars_none hV
  obtain ⟨a0, len0, cap0, rfl⟩ := okWide_slice Try.underlying22 (hval 0 22 v0 rfl rfl)
  have k0 := h0
  have lt0 : ∀ x ∈ p0, x.block < W.heap.size := by obtain ⟨m, hm⟩ := k0; exact DataW.trod_lt m _ _ _ hm
  obtain ⟨l0, w0⟩ : ∃ l, IsToks W a0 len0 cap0 l := by
    obtain ⟨fuel, hf⟩ := h0
    exact isToks_arg (by simp [Value.cells]) hf
  obtain ⟨a1, rfl, rfl, rfl, w1⟩ := open_int Try.underlying5 (hval 1 5 v1 rfl rfl) h1
  clear hA0 hval0
  refine (walk a0 len0 cap0 l0 a1 W w0 w1).mono fun e W' ⟨he, bel⟩ => ?_
  subst he
  exact ⟨_, rfl, _, _, _, [], _, [], hW', trodAll_mk1 (shut_bool Try.underlying4 _), (trodAll_cons_mk (Below.trod laidOut (by kernel_rfl) (of_decide_eq_true (by kernel_rfl)) k0 bel lt0) (trodAll_cons_mk (shut_int Try.underlying5 w1) trodAll_mk0)), rfl, bel.frame _, fun h => by cases h⟩

theorem over : Rows.renderPartsRow.holds Try.pinned (OpenSpec.ofChange Rows.renderPartsSpec) :=
  OpenClaim.holds_of_wide 6 Try.f6 rfl rfl rfl rfl rfl rfl rfl ⟨rfl, rfl, rfl, rfl, rfl⟩ rfl rfl rfl rfl rfl (by kernel_rfl) Try.func6 (by kernel_rfl)
    (of_decide_eq_true (by kernel_rfl)) (by unfold Func.isWrapper; first | (rw [if_pos (by decide +kernel)]; kernel_rfl) | (rw [if_neg (by decide +kernel)]; exact ⟨rfl, rfl⟩))
    (fun os started H enc _ => lifted os started H enc)

/-- the statement -/
theorem proved : Rows.RenderPartsSaid := over
end Go.Proofs.Ytappdjhhaohejaa.renderParts
