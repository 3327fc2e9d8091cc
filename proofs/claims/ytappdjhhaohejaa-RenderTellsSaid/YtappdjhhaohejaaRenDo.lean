/-
  What the document's Render of layer 19 answers.
-/
import Derived.Test.YtappdjhhaohejaaRenRef
import Derived.Test.YtappdjhhaohejaaTokO
namespace Go.Proofs.Ytappdjhhaohejaa
open Go.RowKit Go.Lib

theorem lines_size (nm : Txt) (f : FloP) : (linesF nm f).size ≤ f.size + 101 := by
  have h1 := line_size f
  have hb : (brF nm f).size ≤ f.size + 1 := by unfold brF; split <;> omega
  have h2 := brk_size (linN nm) (brF nm f)
  unfold linesF
  split <;> omega
theorem filter_len (l : List Txt) (nm : Txt) : (l.filter (fun x => decide (x ≠ nm))).length ≤ l.length := List.length_filter_le _ _
/-- a row with something in it lies in a block -/
theorem row_some {w : World} {base : Nat} {a : Option Addr} {n cap m : Nat} {xs : List Value} (h : w.ownsRow base 9 1 (.slice a n cap) m xs) (hn : 0 < m) : ∃ g, a = some ⟨g, 0, none⟩ := by
  rcases h.2 with ⟨-, h0⟩ | ⟨g, cap', cur, hv, -⟩
  · omega
  · simp only [Value.slice.injEq] at hv
    exact ⟨g, hv.1⟩
theorem size_step {a b i : Nat} (h : a ≤ i * 65700) (h2 : b ≤ a + 65700) : b ≤ (i + 1) * 65700 := by omega
theorem body_facts : hidN bodyL = false ∧ keeN bodyL = false := by decide +kernel

set_option maxRecDepth 100000 in
set_option maxHeartbeats 16000000 in
/-- P19.1, the document's -/
theorem refRender19_any (a : Option Addr) (len cap : Nat) (T : List TokP) (w : World) (hT : IsBare w a len cap T) (hlen : len ≤ 4096) (htx : ∀ t ∈ T, t.text.length ≤ 65536) :
    Calls Try.prog 12 #[.slice a len cap] w fun e w' => e = .returned (.string ⟨(renL T).toArray⟩) ∧ Below w.heap.size w w' := by
  have hll := hT.1
  have hlc := hT.2.1
  have hm := hT.2.2.1
  unfold maxLen at hm
  have HT := Lib.hid hT
  have HX := Lib.hid htx
  obtain ⟨Z, hZ⟩ : ∃ Z, (⟨(renL T).toArray⟩ : ByteArray) = Z := ⟨_, rfl⟩
  rw [hZ]
  have HZ := Lib.hid hZ
  obtain ⟨g, hg⟩ : ∃ g, w.heap.size = g := ⟨_, rfl⟩
  have M0 := Lib.hid (strO_nil (refO_made (Made.nothing w) Lies.emp) ((refO_lies _ _).sep Lies.emp))
  rw [hg] at M0
  clear hT htx hZ
  go_enter Try.func12, Try.ntmps12
  go_wp2
  go_loopw [4, 5, 6] (fun v4 v5 v6 wr => ∃ (i : Nat) (r : RenP), v6 = .int .i64 (i : Int) ∧ v5 = .int .i64 (r.kept : Int) ∧ i ≤ len ∧ r.opn.length ≤ i ∧ r.kept ≤ i ∧ r.flow.size ≤ i * 65700 ∧ Hid (Made w wr (Sep (StrO v4 r.opn) (Sep (RefO g r.flow) Emp))) ∧ Hid (renR r (T.drop i) = renR ren0 T)) (fun _ _ v _ => len - (intOf v).toNat)
  case atStart => exact ⟨0, ren0, rfl, rfl, Nat.zero_le _, Nat.le_refl _, Nat.le_refl _, Nat.le_refl _, M0, Lib.hid (by rw [List.drop_zero])⟩
  case round =>
    obtain ⟨i, r, rfl, rfl, hi, hol, hkl, hfs, HM, HR⟩ := hrel
    obtain ⟨l, kept, f⟩ := r
    simp only at hol hkl hfs HM ⊢
    clear M0
    have hHL : Lies (Sep (StrO u4 l) (Sep (RefO g f) Emp)) := (strO_lies u4 l).sep ((refO_lies g f).sep Lies.emp)
    by_cases hlt : i < len
    · have hiT : i < T.length := by omega
      obtain ⟨x, ad, ln, cp, rfl, xc⟩ := HT.out.2.2.2 i hiT
      obtain ⟨x0, x1, x2, x3, x4⟩ := (xc.below HM.out.bel (Nat.le_refl _)).asked
      simp only at x0 x1 x2 x3 x4
      have hRS : renR (renT ⟨l, kept, f⟩ T[i]) (T.drop (i + 1)) = renR ren0 T := by
        rw [← HR.out, ← List.getElem_cons_drop hiT]; rfl
      have hts := HX.out T[i] (List.getElem_mem hiT)
      obtain ⟨t, ht⟩ : ∃ t, T[i] = t := ⟨_, rfl⟩
      rw [ht] at x0 x1 x2 x4 hRS hts
      have HRS := Lib.hid hRS
      obtain ⟨nm, hnm⟩ : ∃ nm : ByteArray, (⟨t.name.toArray⟩ : ByteArray) = nm := ⟨_, rfl⟩
      have hnm2 : nm.data.toList = t.name := by rw [← hnm, List.toList_toArray]
      obtain ⟨X, hX⟩ : ∃ X : ByteArray, (⟨t.text.toArray⟩ : ByteArray) = X := ⟨_, rfl⟩
      obtain ⟨K, hK⟩ : ∃ K, t.kind = K := ⟨_, rfl⟩
      obtain ⟨sf, hsf⟩ : ∃ b, t.self = b := ⟨_, rfl⟩
      rw [hnm] at x1
      rw [hX] at x2
      rw [hK] at x0
      rw [hsf] at x4
      have HNM := Lib.hid hnm
      have HNM2 := Lib.hid hnm2
      have HXX := Lib.hid hX
      have HK := Lib.hid hK
      have CK := fun w => Lib.hid (refKeeps17_any nm w)
      have CH := fun w => Lib.hid (refHides17_any nm w)
      rw [hnm2] at CK CH
      obtain ⟨b, hb⟩ : ∃ b, wr.heap.size = b := ⟨_, rfl⟩
      obtain ⟨o, ho⟩ : ∃ o, Obj.cells #[.int .i64 K, .string nm, .string X, .slice ad ln cp, .bool sf] 29 (0, 0) = o := ⟨_, rfl⟩
      obtain ⟨w5, hw5⟩ : ∃ w5, wr.alloc o = w5 := ⟨_, rfl⟩
      have M5 := Lib.hid (show Made w w5 (Sep (CellO b o) (Sep (StrO u4 l) (Sep (RefO g f) Emp))) by rw [← hw5, ← hb]; exact cellO_made HM.out hHL o)
      have HY := Lib.hid (show ∀ (u : World) (R : Own), Made w u (Sep (CellO b o) R) → u.cell? ⟨b, 0, none⟩ = some (.int .i64 K) ∧ u.cell? ⟨b, 1, none⟩ = some (.string nm) ∧ u.cell? ⟨b, 2, none⟩ = some (.string X) from fun u R h => by
        have h1 := cellO_is h
        rw [← ho] at h1
        refine ⟨?_, ?_, ?_⟩ <;> (rw [cell_of_row _ _ _ _ _ _ h1]; rfl))
      have hw5' : wr.alloc (.cells #[.int .i64 K, .string nm, .string X, .slice ad ln cp, .bool sf] 29) = w5 := by rw [ho]; exact hw5
      have HW5 := Lib.hid hw5'
      have HB := Lib.hid hb
      clear ht hnm hnm2 hX hK hsf hw5 hw5' xc hRS ho
      obtain ⟨a4, cap4, hv4, hlc4, hm4, -⟩ := strO_is HM.out
      subst hv4
      obtain ⟨kb, hkb⟩ : ∃ kb, keeN t.name = kb := ⟨_, rfl⟩
      obtain ⟨hh, hhh⟩ : ∃ hh, hidN t.name = hh := ⟨_, rfl⟩
      rw [hkb] at CK
      rw [hhh] at CH
      have HKB := Lib.hid hkb
      have HHH := Lib.hid hhh
      have hbq : (nm.toList == [98, 111, 100, 121]) = decide (t.name = bodyL) := by
        rw [ByteArray.toList_eq, HNM2.out]
        exact Bool.eq_iff_iff.2 (by rw [beq_iff_eq, decide_eq_true_iff]; exact Iff.rfl)
      have hls := lines_size t.name f
      have hLS : Lies (Sep (CellO b o) (Sep (StrO (.slice a4 l.length cap4) l) Emp)) := (cellO_lies b o).sep ((strO_lies _ l).sep Lies.emp)
      have hLC : Lies (Sep (CellO b o) (Sep (RefO g f) Emp)) := (cellO_lies b o).sep ((refO_lies g f).sep Lies.emp)
      have CL := fun w' h => Lib.hid (refLines19_any w w' g f (Sep (CellO b o) (Sep (StrO (.slice a4 l.length cap4) l) Emp)) hLS h nm (by omega))
      rw [HNM2.out] at CL
      have CW := fun w' h => Lib.hid (refWithout19_any a4 l.length cap4 l ⟨#[104, 101, 97, 100]⟩ w' h (by omega))
      rw [show (⟨#[104, 101, 97, 100]⟩ : ByteArray).data.toList = headL from rfl] at CW
      have CA := fun w' h => Lib.hid (refLast19_any a4 l.length cap4 l nm w' h)
      rw [HNM2.out] at CA
      obtain ⟨n, hn⟩ : ∃ n, l.length = n := ⟨_, rfl⟩
      have HNL := Lib.hid hn
      simp only [hn] at M5 CL CW CA hlc4 hol hLS HM hHL
      rw [hn]
      clear hkb hhh hn
      go_wp2_with (fail)
      rw [HW5.out]
      refine (CK _).out.mono ?_
      rintro e w6 ⟨rfl, hw6⟩
      obtain rfl := hw6.symm
      obtain ⟨y0, y1, y2⟩ := HY.out _ _ M5.out
      clear x0 x1 x2 x3 x4 CK
      by_cases hk1 : K = 1
      · subst hk1
        have HKT := HK
        by_cases hbody : t.name = bodyL
        · -- body
          rw [decide_eq_true hbody] at hbq
          have hh0 : hh = false := by rw [← HHH.out, hbody]; exact body_facts.1
          have kb0 : kb = false := by rw [← HKB.out, hbody]; exact body_facts.2
          subst hh0
          subst kb0
          obtain ⟨lf, hlf⟩ : ∃ lf, l.filter (fun x => decide (x ≠ headL)) = lf := ⟨_, rfl⟩
          have hlfl : lf.length ≤ n := by rw [← hlf, ← HNL.out]; exact filter_len _ _
          have HOP := Lib.hid (show openS ⟨l, kept, f⟩ t.name = lf by unfold openS; rw [if_pos hbody]; exact hlf)
          rw [hlf] at CW
          clear hbody hlf CL CA
          go_wp2_with (fail)
          refine (CW _ (strO_is M5.out.turn)).out.mono ?_
          rintro e w6 ⟨v6, rfl, ho6, b6⟩
          have M6 := Lib.hid (strO_new M5.out.turn.rest hLC b6 ho6).turn
          clear ho6 b6
          obtain ⟨a6, cap6, hv6, -, -, -⟩ := strO_is M6.out.turn
          subst hv6
          obtain ⟨y0, y1, y2⟩ := HY.out _ _ M6.out
          have hLS6 : Lies (Sep (CellO b o) (Sep (StrO (.slice a6 lf.length cap6) lf) Emp)) := (cellO_lies b o).sep ((strO_lies _ lf).sep Lies.emp)
          have CL := fun w' h => Lib.hid (refLines19_any w w' g f (Sep (CellO b o) (Sep (StrO (.slice a6 lf.length cap6) lf) Emp)) hLS6 h nm (by omega))
          rw [HNM2.out] at CL
          obtain ⟨n6, hn6⟩ : ∃ n, lf.length = n := ⟨_, rfl⟩
          have HN6 := Lib.hid hn6
          rw [hn6] at hlfl
          simp only [hn6] at M6 CL
          rw [hn6]
          clear hn6 hLS6
          go_wp2_with (fail)
          refine (CH _).out.mono ?_
          rintro e w7 ⟨rfl, hw7⟩
          obtain rfl := hw7.symm
          by_cases hl0 : n6 = 0
          · have hlf0 : lf = [] := List.eq_nil_of_length_eq_zero (by rw [HN6.out]; exact hl0)
            subst hl0
            go_wp2_with (fail)
            refine (CL _ M6.out.third).out.mono ?_
            rintro e w8 ⟨rfl, m8⟩
            have M8 := Lib.hid m8.back
            clear m8
            obtain ⟨y0, y1, y2⟩ := HY.out _ _ M8.out
            go_wp2
            go_roundw
            case rel => exact ⟨i + 1, ⟨lf, kept, linesF t.name f⟩, by go_num, by first | rfl | trivial | go_num, by omega, by simp only; rw [HN6.out]; omega, by simp only; omega, size_step hfs (by first | exact Nat.le_add_right _ _ | exact Nat.le_trans hls (by omega) | exact Nat.le_trans hps (by omega)), Lib.hid M8.out.rest, Lib.hid (by rw [← HRS.out]; congr 1; rw [renT_start _ t HKT.out, HHH.out, if_neg Bool.false_ne_true, HOP.out, if_pos hlf0, HKB.out, hlf0]; rfl)⟩
            case measure => simp [intOf]; omega

          · have d6 : decide ((0 : Int) < (n6 : Int)) = true := decide_eq_true (by omega)
            have hlf0 : ¬ lf = [] := fun e => hl0 (by rw [← HN6.out, e]; rfl)
            go_wp2
            go_roundw
            case rel => exact ⟨i + 1, ⟨lf, kept, f⟩, by go_num, by first | rfl | trivial | go_num, by omega, by simp only; rw [HN6.out]; omega, by simp only; omega, size_step hfs (by first | exact Nat.le_add_right _ _ | exact Nat.le_trans hls (by omega) | exact Nat.le_trans hps (by omega)), Lib.hid M6.out.rest, Lib.hid (by rw [← HRS.out]; congr 1; rw [renT_start _ t HKT.out, HHH.out, if_neg Bool.false_ne_true, HOP.out, if_neg hlf0])⟩
            case measure => simp [intOf]; omega

        · rw [decide_eq_false hbody] at hbq
          have HOP := Lib.hid (show openS ⟨l, kept, f⟩ t.name = l by unfold openS; rw [if_neg hbody])
          clear hbody CW CA
          go_wp2_with (fail)
          refine (CH _).out.mono ?_
          rintro e w7 ⟨rfl, hw7⟩
          obtain rfl := hw7.symm
          cases hh
          · by_cases hl0 : n = 0
            · have hlf0 : l = [] := List.eq_nil_of_length_eq_zero (by rw [HNL.out]; exact hl0)
              subst hl0
              go_wp2_with (fail)
              refine (CL _ M5.out.third).out.mono ?_
              rintro e w8 ⟨rfl, m8⟩
              have M8 := Lib.hid m8.back
              clear m8
              obtain ⟨y0, y1, y2⟩ := HY.out _ _ M8.out
              cases kb
              · go_wp2
                go_roundw
                case rel => exact ⟨i + 1, ⟨l, kept, linesF t.name f⟩, by go_num, by first | rfl | trivial | go_num, by omega, by simp only; rw [HNL.out]; omega, by simp only; omega, size_step hfs (by first | exact Nat.le_add_right _ _ | exact Nat.le_trans hls (by omega) | exact Nat.le_trans hps (by omega)), Lib.hid M8.out.rest, Lib.hid (by rw [← HRS.out]; congr 1; rw [renT_start _ t HKT.out, HHH.out, if_neg Bool.false_ne_true, HOP.out, if_pos hlf0, HKB.out, hlf0]; rfl)⟩
                case measure => simp [intOf]; omega

              · go_wp2
                go_roundw
                case rel => exact ⟨i + 1, ⟨l, kept + 1, linesF t.name f⟩, by go_num, by first | rfl | trivial | go_num, by omega, by simp only; rw [HNL.out]; omega, by simp only; omega, size_step hfs (by first | exact Nat.le_add_right _ _ | exact Nat.le_trans hls (by omega) | exact Nat.le_trans hps (by omega)), Lib.hid M8.out.rest, Lib.hid (by rw [← HRS.out]; congr 1; rw [renT_start _ t HKT.out, HHH.out, if_neg Bool.false_ne_true, HOP.out, if_pos hlf0, HKB.out, hlf0]; rfl)⟩
                case measure => simp [intOf]; omega

            · have d6 : decide ((0 : Int) < (n : Int)) = true := decide_eq_true (by omega)
              have hlf0 : ¬ l = [] := fun e => hl0 (by rw [← HNL.out, e]; rfl)
              go_wp2
              go_roundw
              case rel => exact ⟨i + 1, ⟨l, kept, f⟩, by go_num, by first | rfl | trivial | go_num, by omega, by simp only; rw [HNL.out]; omega, by simp only; omega, size_step hfs (by first | exact Nat.le_add_right _ _ | exact Nat.le_trans hls (by omega) | exact Nat.le_trans hps (by omega)), Lib.hid M5.out.rest, Lib.hid (by rw [← HRS.out]; congr 1; rw [renT_start _ t HKT.out, HHH.out, if_neg Bool.false_ne_true, HOP.out, if_neg hlf0])⟩
              case measure => simp [intOf]; omega

          · have M6 := Lib.hid (M5.out.turn.below ((strO_lies _ l).sep hLC) ((Below.refl w5.heap.size w5).alloc (Nat.le_refl _) (.cells #[.string nm] 9)))
            go_wp2_with (at_builtin; refine wpList_append_strO rfl _ _ rfl (.slice a4 n cap4) l [t.name] _ hLC rfl M6.out ⟨w5.heap.size, 0, none⟩ 1 1 rfl rfl ?c1 ?c2 ?_)
            case c1 =>
              intro j hj
              have : j = 0 := by simpa using hj
              subst this
              rw [show ((⟨w5.heap.size, 0, none⟩ : Addr).add 0) = ⟨w5.heap.size, 0, none⟩ from rfl, Lib.cell_of_heap (heap_alloc_new w5 _)]
              simp only [List.getElem_cons_zero]
              rw [HNM.out]; rfl
            case c2 => rw [HNL.out]; simp; omega
            intro v8 w8 m8
            have M8 := Lib.hid m8.turn.rest
            clear m8
            go_wp2
            go_roundw
            case rel => exact ⟨i + 1, ⟨l ++ [t.name], kept, f⟩, by go_num, by first | rfl | trivial | go_num, by omega, by simp only; rw [List.length_append, HNL.out]; simp; omega, by simp only; omega, size_step hfs (by first | exact Nat.le_add_right _ _ | exact Nat.le_trans hls (by omega) | exact Nat.le_trans hps (by omega)), M8, Lib.hid (by rw [← HRS.out]; congr 1; rw [renT_start _ t HKT.out, HHH.out, if_pos rfl, HOP.out])⟩
            case measure => simp [intOf]; omega

      · have bk1 : (K == 1) = false := beq_eq_false_iff_ne.2 hk1
        clear CW CH hbq
        by_cases hk2 : K = 2
        · subst hk2
          have HKT := HK
          clear hk1 bk1
          go_wp2_with (fail)
          refine (CA _ (strO_is M5.out.turn)).out.mono ?_
          rintro e w7 ⟨rfl, hw7⟩
          obtain rfl := hw7.symm
          unfold lastI
          cases hla : lastN l t.name with
          | some k =>
            obtain ⟨hkn, -⟩ := last_some _ _ _ hla
            rw [HNL.out] at hkn
            have ho := strO_row M5.out.turn
            rw [HNL.out] at ho
            obtain ⟨g4, rfl⟩ := row_some ho (by omega)
            have HLA := Lib.hid hla
            have M6 := Lib.hid (strO_empty M5.out ((cellO_lies b o).sep ((strO_lies _ l).sep ((refO_lies g f).sep Lies.emp))))
            have HSI := Lib.hid (strO_is (M5.out.turn.below ((strO_lies _ l).sep hLC) ((Below.refl w5.heap.size w5).alloc (Nat.le_refl _) (.cells #[] 9))))
            have i1 : (k : Int) ≤ (n : Int) := by omega
            have i2 : (k : Int) ≤ (cap4 : Int) := by omega
            clear hla ho CA CL
            simp only
            go_wp2_with (at_builtin; refine wpList_append_strO rfl _ _ rfl _ [] (l.take k) _ ((cellO_lies b o).sep ((strO_lies _ l).sep ((refO_lies g f).sep Lies.emp))) rfl M6.out ⟨g4, 0, none⟩ cap4 k rfl (by rw [List.length_take, HNL.out]; omega) ?c1 ?c2 ?_)
            case c1 =>
              intro j hj
              obtain ⟨a9, cap9, hv9, -, -, hc9⟩ := HSI.out
              simp only [Value.slice.injEq] at hv9
              have hj2 : j < l.length := by
                have : (l.take k).length ≤ l.length := by rw [List.length_take]; omega
                simp at hj this; omega
              obtain ⟨x9, hx9, h9⟩ := hc9 j hj2
              rw [← hv9.1] at hx9
              obtain rfl := Option.some.inj hx9
              rw [show (⟨g4, 0, none⟩ : Addr).add j = ⟨g4, j, none⟩ by unfold Addr.add; split <;> simp_all] at h9
              first | exact h9 | (rw [List.getElem_take]; exact h9)
            case c2 =>
              have := HNL.out
              first | omega | (simp; omega)
            intro v8 w8 m8
            have M8 := Lib.hid m8.turn.rest.turn.rest
            clear m8
            go_wp2
            go_roundw
            case rel => exact ⟨i + 1, ⟨l.take k, kept, f⟩, by go_num, by first | rfl | trivial | go_num, by omega, by simp only; rw [List.length_take]; omega, by simp only; omega, size_step hfs (by first | exact Nat.le_add_right _ _ | exact Nat.le_trans hls (by omega) | exact Nat.le_trans hps (by omega)), M8, Lib.hid (by rw [← HRS.out]; congr 1; rw [renT_end _ t HKT.out, HLA.out])⟩
            case measure => simp [intOf]; omega

          | none =>
            have HLA := Lib.hid hla
            clear hla
            simp only
            by_cases hl0 : n = 0
            · have hlf0 : l = [] := List.eq_nil_of_length_eq_zero (by rw [HNL.out]; exact hl0)
              subst hl0
              go_wp2_with (fail)
              refine (CL _ M5.out.third).out.mono ?_
              rintro e w8 ⟨rfl, m8⟩
              have M8 := Lib.hid m8.back
              clear m8
              obtain ⟨y0, y1, y2⟩ := HY.out _ _ M8.out
              cases kb
              · go_wp2
                go_roundw
                case rel => exact ⟨i + 1, ⟨l, kept, linesF t.name f⟩, by go_num, by first | rfl | trivial | go_num, by omega, by simp only; rw [HNL.out]; omega, by simp only; omega, size_step hfs (by first | exact Nat.le_add_right _ _ | exact Nat.le_trans hls (by omega) | exact Nat.le_trans hps (by omega)), Lib.hid M8.out.rest, Lib.hid (by rw [← HRS.out]; congr 1; rw [renT_end _ t HKT.out, HLA.out]; show _ = if l = [] then _ else _; rw [if_pos hlf0, HKB.out, hlf0]; rfl)⟩
                case measure => simp [intOf]; omega

              · by_cases hk0 : kept = 0
                · subst hk0
                  go_wp2
                  go_roundw
                  case rel => exact ⟨i + 1, ⟨l, 0, linesF t.name f⟩, by go_num, by first | rfl | trivial | go_num, by omega, by simp only; rw [HNL.out]; omega, by simp only; omega, size_step hfs (by first | exact Nat.le_add_right _ _ | exact Nat.le_trans hls (by omega) | exact Nat.le_trans hps (by omega)), Lib.hid M8.out.rest, Lib.hid (by rw [← HRS.out]; congr 1; rw [renT_end _ t HKT.out, HLA.out]; show _ = if l = [] then _ else _; rw [if_pos hlf0, HKB.out, hlf0]; rfl)⟩
                  case measure => simp [intOf]; omega

                · obtain ⟨kk, rfl⟩ : ∃ kk, kept = kk + 1 := ⟨kept - 1, by omega⟩
                  have dk : decide ((0 : Int) < ((kk + 1 : Nat) : Int)) = true := decide_eq_true (by omega)
                  have dk2 : decide ((0 : Int) < (kk : Int) + 1) = true := decide_eq_true (by omega)
                  go_wp2
                  go_roundw
                  case rel => exact ⟨i + 1, ⟨l, kk, linesF t.name f⟩, by go_num, by first | rfl | trivial | go_num, by omega, by simp only; rw [HNL.out]; omega, by simp only; omega, size_step hfs (by first | exact Nat.le_add_right _ _ | exact Nat.le_trans hls (by omega) | exact Nat.le_trans hps (by omega)), Lib.hid M8.out.rest, Lib.hid (by rw [← HRS.out]; congr 1; rw [renT_end _ t HKT.out, HLA.out]; show _ = if l = [] then _ else _; rw [if_pos hlf0, HKB.out, hlf0]; rfl)⟩
                  case measure => simp [intOf]; omega

            · have d6 : decide ((0 : Int) < (n : Int)) = true := decide_eq_true (by omega)
              have hlf0 : ¬ l = [] := fun e => hl0 (by rw [← HNL.out, e]; rfl)
              go_wp2
              go_roundw
              case rel => exact ⟨i + 1, ⟨l, kept, f⟩, by go_num, by first | rfl | trivial | go_num, by omega, by simp only; rw [HNL.out]; omega, by simp only; omega, size_step hfs (by first | exact Nat.le_add_right _ _ | exact Nat.le_trans hls (by omega) | exact Nat.le_trans hps (by omega)), Lib.hid M5.out.rest, Lib.hid (by rw [← HRS.out]; congr 1; rw [renT_end _ t HKT.out, HLA.out]; show _ = if l = [] then _ else _; rw [if_neg hlf0])⟩
              case measure => simp [intOf]; omega

        · have bk2 : (K == 2) = false := beq_eq_false_iff_ne.2 hk2
          clear CA CL
          by_cases hk0 : K = 0
          · subst hk0
            have HKT := HK
            clear hk1 hk2 bk1 bk2
            by_cases hl0 : n = 0
            · have hlf0 : l = [] := List.eq_nil_of_length_eq_zero (by rw [HNL.out]; exact hl0)
              subst hl0
              have CD := fun (kp : Bool) w' h => Lib.hid (refDoM_any w w' g f (Sep (CellO b o) (Sep (StrO (.slice a4 0 cap4) l) Emp)) hLS h ⟨0, t.text, kp, 0⟩ (by simp; omega) ⟨by simp, by simp⟩)
              simp only [show ∀ kp, actF f ⟨0, t.text, kp, 0⟩ = putL kp f t.text from fun _ => rfl] at CD
              unfold aggA at CD
              simp only [HXX.out] at CD
              have hps := putL_size (decide (0 < kept)) t.text f
              have hdk : decide ((0 : Int) < (kept : Int)) = decide (0 < kept) := Bool.eq_iff_iff.2 (by simp)
              have CD := CD (decide (0 < kept))
              obtain ⟨kd, hkd⟩ : ∃ kd, decide (0 < kept) = kd := ⟨_, rfl⟩
              have HKD := Lib.hid hkd
              rw [hkd] at CD hps hdk
              go_wp2_with (fail)
              refine (CD _ M5.out.third).out.mono ?_
              rintro e w8 ⟨rfl, m8⟩
              have M8 := Lib.hid m8.back
              clear m8
              go_wp2
              go_roundw
              case rel => exact ⟨i + 1, ⟨l, kept, putL kd f t.text⟩, by go_num, by first | rfl | trivial | go_num, by omega, by simp only; rw [HNL.out]; omega, by simp only; omega, size_step hfs (by first | exact Nat.le_add_right _ _ | exact Nat.le_trans hls (by omega) | exact Nat.le_trans hps (by omega)), Lib.hid M8.out.rest, Lib.hid (by rw [← HRS.out]; congr 1; rw [renT_text _ t HKT.out]; show _ = if l = [] then _ else _; rw [if_pos hlf0]; simp only; rw [HKD.out, hlf0])⟩
              case measure => simp [intOf]; omega

            · have hlf0 : ¬ l = [] := fun e => hl0 (by rw [← HNL.out, e]; rfl)
              have d6 : ((n : Int) == 0) = false := beq_eq_false_iff_ne.2 (by omega)
              go_wp2
              go_roundw
              case rel => exact ⟨i + 1, ⟨l, kept, f⟩, by go_num, by first | rfl | trivial | go_num, by omega, by simp only; rw [HNL.out]; omega, by simp only; omega, size_step hfs (by first | exact Nat.le_add_right _ _ | exact Nat.le_trans hls (by omega) | exact Nat.le_trans hps (by omega)), Lib.hid M5.out.rest, Lib.hid (by rw [← HRS.out]; congr 1; rw [renT_text _ t HKT.out]; show _ = if l = [] then _ else _; rw [if_neg hlf0])⟩
              case measure => simp [intOf]; omega

          · have bk0 : (K == 0) = false := beq_eq_false_iff_ne.2 hk0
            have HKO := Lib.hid (show renT ⟨l, kept, f⟩ t = ⟨l, kept, f⟩ from renT_other _ t (by rw [HK.out]; exact hk0) (by rw [HK.out]; exact hk1) (by rw [HK.out]; exact hk2))
            clear hk0 hk1 hk2
            go_wp2
            go_roundw
            case rel => exact ⟨i + 1, ⟨l, kept, f⟩, by go_num, by first | rfl | trivial | go_num, by omega, by simp only; rw [HNL.out]; omega, by simp only; omega, size_step hfs (by first | exact Nat.le_add_right _ _ | exact Nat.le_trans hls (by omega) | exact Nat.le_trans hps (by omega)), Lib.hid M5.out.rest, Lib.hid (by rw [← HRS.out]; congr 1; exact HKO.out.symm)⟩
            case measure => simp [intOf]; omega

    · obtain rfl : i = len := by omega
      have y0 := refO_told HM.out.turn
      have HE := Lib.hid (show (⟨f.told.toArray⟩ : ByteArray) = Z by
        rw [← HZ.out]
        have := HR.out
        rw [List.drop_eq_nil_of_le (by omega)] at this
        unfold renL
        rw [← this]; rfl)
      rw [HE.out] at y0
      go_wp2
      go_ret
      exact ⟨rfl, HM.out.bel⟩
end Go.Proofs.Ytappdjhhaohejaa
