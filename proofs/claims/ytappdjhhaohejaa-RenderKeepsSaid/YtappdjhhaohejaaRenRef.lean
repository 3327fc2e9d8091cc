/-
  What the document's lines, last and without of layer 19 answer.
-/
import Derived.Test.YtappdjhhaohejaaRenMath
import Derived.Test.YtappdjhhaohejaaFloO
import Derived.Test.YtappdjhhaohejaaStrO
import Derived.Test.YtappdjhhaohejaaKndRef
namespace Go.Proofs.Ytappdjhhaohejaa
open Go.RowKit Go.Lib

def lastI (l : List Txt) (nm : Txt) : Int := match lastN l nm with | some k => (k : Int) | none => -1
theorem lastI_at (l : List Txt) (nm : Txt) (k : Nat) (h : k < l.length) (e : l[k] = nm) (hn : ∀ j (hj : j < l.length), k < j → l[j] ≠ nm) : lastN l nm = some k := by
  have hd : l = l.take k ++ nm :: l.drop (k + 1) := by
    rw [← e, List.getElem_cons_drop h, List.take_append_drop]
  have hm : nm ∉ l.drop (k + 1) := fun hm => by
    obtain ⟨j, hj, he⟩ := List.getElem_of_mem hm
    rw [List.length_drop] at hj
    rw [List.getElem_drop] at he
    exact hn (k + 1 + j) (by omega) (by omega) he
  rw [hd, last_app nm _ _ 0 (last_one nm _ hm), List.length_take]
  congr 1; omega
theorem lastI_no (l : List Txt) (nm : Txt) (hn : ∀ j (hj : j < l.length), l[j] ≠ nm) : lastN l nm = none := last_none nm l fun hm => by
  obtain ⟨j, hj, he⟩ := List.getElem_of_mem hm
  exact hn j hj he
theorem txt_beqB (A : Txt) (nm : ByteArray) : ((⟨A.toArray⟩ : ByteArray).toList == nm.toList) = decide (A = nm.data.toList) := by
  rw [str_beq, List.toList_toArray]

set_option maxRecDepth 100000 in
set_option maxHeartbeats 4000000 in
theorem refLast19_any (a : Option Addr) (len cap : Nat) (l : List Txt) (nm : ByteArray) (w : World) (h : StrsIs w (.slice a len cap) l) :
    Calls Try.prog 23 #[.slice a len cap, .string nm] w fun e w' => e = .returned (.int .i64 (lastI l nm.data.toList)) ∧ w' = w := by
  obtain ⟨a', cap', hv, hlc, hm, hc⟩ := h
  simp only [Value.slice.injEq] at hv
  obtain ⟨rfl, rfl, rfl⟩ := hv
  unfold maxLen at hm
  have HC := Lib.hid hc
  obtain ⟨n, hn⟩ : ∃ n, l.length = n := ⟨_, rfl⟩
  have HN := Lib.hid hn
  obtain ⟨R, hR⟩ : ∃ R, lastI l nm.data.toList = R := ⟨_, rfl⟩
  have HR := Lib.hid hR
  rw [hR, hn]
  rw [hn] at hlc
  clear hc hn hR
  go_enter Try.func23, Try.ntmps23
  go_wp2
  go_loopw [5] (fun v wr => ∃ k : Nat, v = .int .i64 ((k : Int) - 1) ∧ k ≤ n ∧ w = wr ∧ Hid (∀ j (h : j < l.length), k ≤ j → l[j] ≠ nm.data.toList)) (fun v _ => (intOf v + 1).toNat)
  case atStart => exact ⟨n, by first | rfl | go_num, Nat.le_refl _, rfl, Lib.hid fun j hj h => absurd hj (by have := HN.out; omega)⟩
  case round =>
    obtain ⟨k, rfl, hk, rfl, HK⟩ := hrel
    by_cases h0 : k = 0
    · subst h0
      have HE : Hid (R = -1) := Lib.hid (by
        rw [← HR.out]; unfold lastI
        rw [lastI_no l _ (fun j hj => HK.out j hj (Nat.zero_le _))])
      go_wp2
      go_ret
      exact ⟨ret_int HE.out.symm, rfl⟩
    · obtain ⟨j, rfl⟩ : ∃ j, k = j + 1 := ⟨k - 1, by omega⟩
      have hjl : j < l.length := by have := HN.out; omega
      obtain ⟨x, rfl, xc⟩ := HC.out j hjl
      have he := txt_beqB l[j] nm
      have e1 : ((j + 1 : Nat) : Int) - 1 = (j : Int) := by omega
      obtain ⟨S, hS⟩ : ∃ S : ByteArray, (⟨l[j].toArray⟩ : ByteArray) = S := ⟨_, rfl⟩
      rw [hS] at he xc
      rw [e1]
      have g0 : (0 : Int) ≤ (j : Int) := by omega
      by_cases hx : l[j] = nm.data.toList
      · rw [decide_eq_true hx] at he
        have HE : Hid (R = (j : Int)) := Lib.hid (by
          rw [← HR.out]; unfold lastI
          rw [lastI_at l _ j hjl hx (fun i hi h => HK.out i hi (by omega))])
        clear hx hS e1
        go_wp2
        go_ret
        exact ⟨ret_int HE.out.symm, rfl⟩
      · rw [decide_eq_false hx] at he
        have HK2 := Lib.hid (show ∀ i (h : i < l.length), j ≤ i → l[i] ≠ nm.data.toList from fun i hi h => by
          rcases Nat.lt_or_eq_of_le h with h | h
          · exact HK.out i hi (by omega)
          · subst h; exact hx)
        clear hx hS e1
        go_wp2
        go_roundw
        case rel => exact ⟨j, by first | rfl | go_num, by omega, trivial, HK2⟩
        case measure => first | (simp [intOf]; done) | (simp [intOf]; omega)

theorem filter_step (l : List Txt) (i : Nat) (h : i < l.length) (nm : Txt) : (l.take (i + 1)).filter (fun x => decide (x ≠ nm)) = (l.take i).filter (fun x => decide (x ≠ nm)) ++ (if l[i] = nm then [] else [l[i]]) := by
  rw [List.take_succ_eq_append_getElem h, List.filter_append, List.filter_cons, List.filter_nil]
  by_cases hx : l[i] = nm
  · rw [if_pos hx]; simp [hx]
  · rw [if_neg hx]; simp [hx]

set_option maxRecDepth 100000 in
set_option maxHeartbeats 4000000 in
theorem refWithout19_any (a : Option Addr) (len cap : Nat) (l : List Txt) (nm : ByteArray) (w : World) (h : StrsIs w (.slice a len cap) l) (hlen : l.length ≤ 536870912) :
    Calls Try.prog 20 #[.slice a len cap, .string nm] w fun e w' => ∃ v, e = .returned v ∧ w'.ownsRow w.heap.size 9 1 v (l.filter (fun x => decide (x ≠ nm.data.toList))).length (strsV (l.filter (fun x => decide (x ≠ nm.data.toList)))) ∧ Below w.heap.size w w' := by
  obtain ⟨i0, hi0, hz0, hz1, hz2⟩ := info_parts info_strO
  obtain ⟨a', cap', hv, hlc, hm, hc⟩ := h
  simp only [Value.slice.injEq] at hv
  obtain ⟨rfl, rfl, rfl⟩ := hv
  unfold maxLen at hm
  have HC := Lib.hid hc
  obtain ⟨n, hn⟩ : ∃ n, l.length = n := ⟨_, rfl⟩
  have HN := Lib.hid hn
  obtain ⟨Lf, hLf⟩ : ∃ Lf, l.filter (fun x => decide (x ≠ nm.data.toList)) = Lf := ⟨_, rfl⟩
  have HLf := Lib.hid hLf
  rw [hn] at hlc hlen ⊢
  rw [hLf]
  clear hc hn hLf
  go_enter Try.func20, Try.ntmps20
  go_wp2
  go_loopw [5, 6] (fun v5 v6 wr => ∃ (i : Nat) (m : List Txt), v6 = .int .i64 (i : Int) ∧ i ≤ n ∧ Below w.heap.size w wr ∧ Hid (m = (l.take i).filter (fun x => decide (x ≠ nm.data.toList))) ∧ wr.ownsRow w.heap.size 9 1 v5 m.length (strsV m)) (fun _ v _ => n - (intOf v).toNat)
  case atStart => exact ⟨0, [], rfl, Nat.zero_le _, Below.refl _ _, Lib.hid rfl, World.ownsRow_nil _ _ _ _⟩
  case round =>
    obtain ⟨i, m, rfl, hi, hb, HM, ho⟩ := hrel
    have HB := Lib.hid hb
    have HO := Lib.hid ho
    have hbs := hb.size
    clear hb ho
    by_cases hlt : i < n
    · have hil : i < l.length := by have := HN.out; omega
      obtain ⟨x, rfl, xc⟩ := HC.out i hil
      have xc := (HB.out.cell (p := x.add i) (by have := block_lt_of_cell xc; exact this)).trans xc
      have he := txt_beqB l[i] nm
      have hf := filter_step l i hil nm.data.toList
      obtain ⟨S, hS⟩ : ∃ S : ByteArray, (⟨l[i].toArray⟩ : ByteArray) = S := ⟨_, rfl⟩
      have HS := Lib.hid hS
      rw [hS] at he xc
      have hml : m.length ≤ i := by
        rw [HM.out]
        refine Nat.le_trans (List.length_filter_le _ _) ?_
        rw [List.length_take]; omega
      by_cases hx : l[i] = nm.data.toList
      · rw [decide_eq_true hx] at he
        rw [if_pos hx, List.append_nil] at hf
        have HM2 := Lib.hid (HM.out.trans hf.symm)
        have he2 : (S.toList != nm.toList) = false := by rw [bne, he]; rfl
        clear hx hS hf
        go_wp2
        go_roundw
        case rel => exact ⟨i + 1, m, by go_num, by omega, HB.out, HM2, HO.out⟩
        case measure => simp [intOf]; omega
      · rw [decide_eq_false hx] at he
        rw [if_neg hx] at hf
        have HM2 := Lib.hid (show m ++ [l[i]] = (l.take (i + 1)).filter (fun x => decide (x ≠ nm.data.toList)) by rw [hf, HM.out])
        have he2 : (S.toList != nm.toList) = true := by rw [bne, he]; rfl
        clear hx hS hf
        go_wp2_with (at_builtin; refine wpList_append_own_at _ rfl _ _ 26 rfl w.heap.size 9 i0 _ 1 16 Try.underlying26 hi0 hz0 hz1 hz2 rfl (by decide) _ m.length (strsV m) rfl (HO.out.alloc _) ⟨wr.heap.size, 0, none⟩ 1 1 (strsV [l[i]]) rfl rfl ?c1 (strsV_one _) ?c3 ?c4 ?c5 ?_)
        case c1 =>
          intro j u hj
          have : j = 0 := by
            have := (List.getElem?_eq_some_iff.1 hj).1
            rw [strsV_len] at this; simp at this; exact this
          subst this
          rw [strsV_at _ 0 (by simp)] at hj
          rw [show ((⟨wr.heap.size, 0, none⟩ : Addr).add 0) = ⟨wr.heap.size, 0, none⟩ from rfl, Lib.cell_of_heap (heap_alloc_new wr _)]
          simp only [List.getElem_cons_zero] at hj
          rw [HS.out] at hj
          simpa using hj
        case c3 => first | (unfold maxLen; omega) | (simp [maxLen]; omega) | omega
        case c4 => first | omega | (simp; omega)
        case c5 => first | omega | (simp; omega)
        intro v6 w6 hown1 hgr1 _ hat1
        have HO6 := Lib.hid (show w6.ownsRow w.heap.size 9 1 v6 (m ++ [l[i]]).length (strsV (m ++ [l[i]])) by
          rw [List.length_append, ← strsV_app]; exact hown1)
        have HB6 := Lib.hid ((HB.out.alloc hbs (.cells #[.string S] 9)).grown hgr1 (by simp; omega) (fun k hk => (HO.out.lt k hk).1))
        clear hown1 hgr1 hat1
        go_wp2
        go_roundw
        case rel => exact ⟨i + 1, m ++ [l[i]], by go_num, by omega, HB6.out, HM2, HO6.out⟩
        case measure => simp [intOf]; omega
    · obtain rfl : i = n := by omega
      have e : l.take i = l := List.take_of_length_le (by have := HN.out; omega)
      rw [e] at HM
      have e2 := HM.out.trans HLf.out
      subst e2
      go_wp2
      go_ret
      exact ⟨_, rfl, HO.out, HB.out⟩

set_option maxRecDepth 100000 in
set_option maxHeartbeats 4000000 in
theorem refLines19_any (w0 w : World) (g : Nat) (f : FloP) (R : Own) (hR : Lies R) (h : Made w0 w (Sep (RefO g f) R)) (nm : ByteArray) (hs : f.size ≤ 1073741000) :
    Calls Try.prog 22 #[.pointer (some ⟨g, 0, none⟩), .string nm] w fun e w' => e = .returned (.tuple #[]) ∧ Made w0 w' (Sep (RefO g (linesF nm.data.toList f)) R) := by
  have H := Lib.hid h
  have hb := txt_beqB brL nm
  rw [show (⟨brL.toArray⟩ : ByteArray).toList = [98, 114] from by rw [ByteArray.toList_eq]; rfl] at hb
  have hb2 : (nm.toList == [98, 114]) = decide (brL = nm.data.toList) := by rw [← hb]; exact Bool.eq_iff_iff.2 (by simp only [beq_iff_eq]; exact eq_comm)
  have hs1 := line_size f
  have hbr : (brF nm.data.toList f).size ≤ f.size + 1 := by unfold brF; split <;> omega
  have C1 := fun w' h => Lib.hid (refDoM_any w0 w' g f R hR h ⟨2, [], false, 0⟩ (by simp; omega) ⟨by decide, by decide⟩)
  have hlr := lin_range nm.data.toList
  have C2 := fun w' h => Lib.hid (refDoM_any w0 w' g (brF nm.data.toList f) R hR h ⟨1, [], false, linN nm.data.toList⟩ (by simp; omega) ⟨by simp only; omega, by simp only; omega⟩)
  rw [show actF f ⟨2, [], false, 0⟩ = lineF f from rfl] at C1
  rw [show actF (brF nm.data.toList f) ⟨1, [], false, linN nm.data.toList⟩ = brkF (linN nm.data.toList) (brF nm.data.toList f) from rfl] at C2
  unfold aggA at C1 C2
  simp only at C1 C2
  have CL := fun w => Lib.hid (refLines17_any nm w)
  have hlf : linesF nm.data.toList f = if 0 < linN nm.data.toList then brkF (linN nm.data.toList) (brF nm.data.toList f) else brF nm.data.toList f := rfl
  obtain ⟨G, hG⟩ : ∃ G, linesF nm.data.toList f = G := ⟨_, rfl⟩
  obtain ⟨B, hB⟩ : ∃ B, brF nm.data.toList f = B := ⟨_, rfl⟩
  obtain ⟨N, hN⟩ : ∃ N, linN nm.data.toList = N := ⟨_, rfl⟩
  have hbe : B = if nm.data.toList = brL then lineF f else f := by rw [← hB]; rfl
  rw [hG, hN, hB] at hlf
  rw [hN, hB] at C2
  rw [hN] at CL hlr
  rw [hG]
  clear hG hB hN h hs hs1 hbr hb
  by_cases hx : nm.data.toList = brL
  · rw [decide_eq_true hx.symm] at hb2
    rw [if_pos hx] at hbe
    rw [← hbe] at C1
    clear hx hbe
    by_cases hn : 0 < N
    · rw [if_pos hn] at hlf
      rw [← hlf] at C2
      have hn2 : decide (0 < N) = true := decide_eq_true hn
      clear hlf
      go_enter Try.func22, Try.ntmps22
      go_wp2_with (fail)
      refine (C1 _ H.out).out.mono ?_
      rintro e w1 ⟨rfl, m1⟩
      have M1 := Lib.hid m1
      clear m1
      go_wp2_with (fail)
      refine (CL _).out.mono ?_
      rintro e w2 ⟨rfl, rfl⟩
      go_wp2_with (fail)
      refine (C2 _ M1.out).out.mono ?_
      rintro e w3 ⟨rfl, m3⟩
      go_wp2
      refine bodyPost_end (results_none rfl _ _ _) rfl ?_
      exact ⟨rfl, m3⟩
    · rw [if_neg hn] at hlf
      have hn2 : decide (0 < N) = false := decide_eq_false hn
      subst hlf
      go_enter Try.func22, Try.ntmps22
      go_wp2_with (fail)
      refine (C1 _ H.out).out.mono ?_
      rintro e w1 ⟨rfl, m1⟩
      have M1 := Lib.hid m1
      clear m1
      go_wp2_with (fail)
      refine (CL _).out.mono ?_
      rintro e w2 ⟨rfl, rfl⟩
      go_wp2
      refine bodyPost_end (results_none rfl _ _ _) rfl ?_
      exact ⟨rfl, M1.out⟩
  · rw [decide_eq_false (fun e => hx e.symm)] at hb2
    rw [if_neg hx] at hbe
    subst hbe
    clear hx C1
    by_cases hn : 0 < N
    · rw [if_pos hn] at hlf
      rw [← hlf] at C2
      have hn2 : decide (0 < N) = true := decide_eq_true hn
      clear hlf
      go_enter Try.func22, Try.ntmps22
      go_wp2_with (fail)
      refine (CL _).out.mono ?_
      rintro e w2 ⟨rfl, rfl⟩
      go_wp2_with (fail)
      refine (C2 _ H.out).out.mono ?_
      rintro e w3 ⟨rfl, m3⟩
      go_wp2
      refine bodyPost_end (results_none rfl _ _ _) rfl ?_
      exact ⟨rfl, m3⟩
    · rw [if_neg hn] at hlf
      have hn2 : decide (0 < N) = false := decide_eq_false hn
      subst hlf
      go_enter Try.func22, Try.ntmps22
      go_wp2_with (fail)
      refine (CL _).out.mono ?_
      rintro e w2 ⟨rfl, rfl⟩
      go_wp2
      refine bodyPost_end (results_none rfl _ _ _) rfl ?_
      exact ⟨rfl, H.out⟩
end Go.Proofs.Ytappdjhhaohejaa
