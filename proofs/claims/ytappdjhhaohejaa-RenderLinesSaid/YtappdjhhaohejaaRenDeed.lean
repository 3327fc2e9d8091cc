/-
  What the program's closures of layer 19 do to its page: a start tag, an end tag, a text. (Written by wip/tools/gen_rendeed.py.)
-/
import Derived.Test.YtappdjhhaohejaaRenOpen
import Derived.Test.YtappdjhhaohejaaTokO
namespace Go.Proofs.Ytappdjhhaohejaa
open Go.RowKit Go.Lib

theorem filter_cnt (nm : Txt) : ∀ l : List Txt, (l.filter fun x => decide (x ≠ nm)).length + cntN l nm = l.length
  | [] => rfl
  | x :: l => by
    have ih := filter_cnt nm l
    rw [List.filter_cons]
    show _ + ((if x = nm then 1 else 0) + cntN l nm) = _
    rw [List.length_cons]
    by_cases hx : x = nm
    · rw [if_neg (by simpa using hx), if_pos hx]; omega
    · rw [if_pos (by simpa using hx), if_neg hx, List.length_cons]; omega
theorem hid_short (nm : Txt) (h : hidN nm = true) : nm.length ≤ 16777216 := by
  have h1 : ∀ x ∈ hidL, x.length ≤ 16777216 := by decide +kernel
  exact h1 nm (of_decide_eq_true h)
/-- the captured page -/
def boxC (pg : Nat) : Obj := .cells #[.pointer (some ⟨pg, 0, none⟩)] 41 (0, 0)
/-- the piece itself -/
def tokC (K : Int) (nm X : ByteArray) (ad : Option Addr) (ln cp : Nat) (sf : Bool) : Obj := .cells #[.int .i64 K, .string nm, .string X, .slice ad ln cp, .bool sf] 29 (0, 0)
theorem Imp.sink (T : Own) (pg : Nat) (g : Addr) (b : Nat) (v : Value) (l : List Txt) (k : Nat) (fl : FloP) (n : Nat) (f : Txt → Nat) (R : Own) : Imp (Sep T (PageS pg g b v l k fl n f R)) (PageS pg g b v l k fl n f (Sep T R)) :=
  fun w F h => Imp.right _ (Imp.right _ (Imp.right _ (Imp.turn _ _ _))) w F (Imp.right _ (Imp.right _ (Imp.turn _ _ _)) w F (Imp.right _ (Imp.turn _ _ _) w F (Imp.turn _ _ _ w F h)))
theorem Imp.rise (T : Own) (pg : Nat) (g : Addr) (b : Nat) (v : Value) (l : List Txt) (k : Nat) (fl : FloP) (n : Nat) (f : Txt → Nat) (R : Own) : Imp (PageS pg g b v l k fl n f (Sep T R)) (Sep T (PageS pg g b v l k fl n f R)) :=
  fun w F h => Imp.turn _ _ _ w F (Imp.right _ (Imp.turn _ _ _) w F (Imp.right _ (Imp.right _ (Imp.turn _ _ _)) w F (Imp.right _ (Imp.right _ (Imp.right _ (Imp.turn _ _ _))) w F h)))
theorem deed_facts {w0 w : World} {pg : Nat} {g : Addr} {b : Nat} {v : Value} {l : List Txt} {k : Nat} {fl : FloP} {n : Nat} {f : Txt → Nat} {R : Own} {tb bx : Nat} {K : Int} {nm X : ByteArray} {ad : Option Addr} {ln cp : Nat} {sf : Bool}
    (h : Made w0 w (PageS pg g b v l k fl n f (Sep (CellO tb (tokC K nm X ad ln cp sf)) (Sep (CellO bx (boxC pg)) R)))) :
    w.cell? ⟨tb, 1, none⟩ = some (.string nm) ∧ w.cell? ⟨tb, 2, none⟩ = some (.string X) ∧ w.cell? ⟨bx, 0, none⟩ = some (.pointer (some ⟨pg, 0, none⟩)) := by
  have h1 := cellO_is h.rest.rest.rest.rest
  have h2 := cellO_is h.rest.rest.rest.rest.rest
  unfold tokC at h1
  unfold boxC at h2
  exact ⟨by rw [Lib.cell_of_heap h1]; rfl, by rw [Lib.cell_of_heap h1]; rfl, by rw [Lib.cell_of_heap h2]; rfl⟩
/-- what a closure leaves -/
def DeedP (w0 : World) (pg : Nat) (g : Addr) (b : Nat) (r : RenP) (m : Nat) (R : Own) (e : Ending) (w' : World) : Prop :=
  e = .returned (.tuple #[]) ∧ ∃ v' n', n' + r.opn.length ≤ m ∧ Made w0 w' (PageS pg g b v' r.opn r.kept r.flow n' (cntN r.opn) R)
theorem deed_done {w0 w' : World} {pg : Nat} {g : Addr} {b : Nat} {r0 r r' : RenP} {t : TokP} {m : Nat} {T R : Own} {v' : Value} {n' : Nat} (h : renT r0 t = r) (he : renT r0 t = r') (hm : n' + r'.opn.length ≤ m)
    (hM : Made w0 w' (PageS pg g b v' r'.opn r'.kept r'.flow n' (cntN r'.opn) (Sep T R))) : DeedP w0 pg g b r m R (.returned (.tuple #[])) w' := by
  rw [← h, he]
  exact ⟨rfl, v', n', hm, (hM.imp (Imp.rise _ _ _ _ _ _ _ _ _ _ _)).rest⟩

set_option maxRecDepth 100000 in
set_option maxHeartbeats 16000000 in
theorem startD_any {w0 w : World} {pg : Nat} {g : Addr} {b : Nat} {v : Value} {l : List Txt} {k : Nat} {fl : FloP} {n : Nat} {R : Own} {bx : Nat} (hM : Made w0 w (PageS pg g b v l k fl n (cntN l) (Sep (CellO bx (boxC pg)) R))) (hR : Lies R) (t : TokP) (hkind : t.kind = 1) (ad : Option Addr) (ln cp : Nat)
    (hs : fl.size + t.text.length ≤ 1073741000) (hk : k ≤ 100000) (hl : l.length ≤ 100000) (hn : n ≤ 100000) :
    Calls Try.prog 28 #[tokA t ad ln cp, .pointer (some ⟨bx, 0, none⟩)] w (DeedP w0 pg g b (renT ⟨l, k, fl⟩ t) (n + l.length + 2) (Sep (CellO bx (boxC pg)) R)) := by
  obtain ⟨RR, hRR⟩ : ∃ RR, renT ⟨l, k, fl⟩ t = RR := ⟨_, rfl⟩
  have HRR := Lib.hid hRR
  rw [hRR]
  unfold tokA
  have HK := Lib.hid hkind
  rw [hkind]
  obtain ⟨nm, hnmE⟩ : ∃ nm : ByteArray, (⟨t.name.toArray⟩ : ByteArray) = nm := ⟨_, rfl⟩
  have hnm2 : nm.data.toList = t.name := by rw [← hnmE, List.toList_toArray]
  obtain ⟨X, hX⟩ : ∃ X : ByteArray, (⟨t.text.toArray⟩ : ByteArray) = X := ⟨_, rfl⟩
  have hX2 : X.data.toList = t.text := by rw [← hX, List.toList_toArray]
  have hXs : X.size = t.text.length := by rw [Lib.size_eq, hX2]
  rw [← hXs] at hs
  obtain ⟨sf, hsf⟩ : ∃ b, t.self = b := ⟨_, rfl⟩
  rw [hnmE, hX, hsf]
  have HNM2 := Lib.hid hnm2
  have HX2 := Lib.hid hX2
  obtain ⟨tb, htb⟩ : ∃ tb, w.heap.size = tb := ⟨_, rfl⟩
  have HRL0 := Lib.hid ((cellO_lies bx (boxC pg)).sep hR)
  have HRL := Lib.hid ((cellO_lies tb (tokC 1 nm X ad ln cp sf)).sep HRL0.out)
  have hm1 := (cellO_made hM (page_lies pg g b v l k fl n (cntN l) HRL0.out) (tokC 1 nm X ad ln cp sf)).imp (Imp.sink _ _ _ _ _ _ _ _ _ _ _)
  rw [htb] at hm1
  obtain ⟨w1, hw1⟩ : ∃ w1, w.alloc (tokC 1 nm X ad ln cp sf) = w1 := ⟨_, rfl⟩
  rw [hw1] at hm1
  have M1 := Lib.hid hm1
  have HW1 := Lib.hid (show w.alloc (.cells #[.int .i64 1, .string nm, .string X, .slice ad ln cp, .bool sf] 29) = w1 from hw1)
  have y0 : (w.alloc (.cells #[.int .i64 1, .string nm, .string X, .slice ad ln cp, .bool sf] 29)).cell? ⟨bx, 0, none⟩ = some (.pointer (some ⟨pg, 0, none⟩)) := by
    rw [HW1.out]
    exact (deed_facts hm1).2.2
  have y00 : w.cell? ⟨bx, 0, none⟩ = some (.pointer (some ⟨pg, 0, none⟩)) := by
    have h2 := cellO_is hM.rest.rest.rest.rest
    unfold boxC at h2
    rw [Lib.cell_of_heap h2]; rfl
  have y000 : bx ≠ w.heap.size := by
    have h2 := cellO_is hM.rest.rest.rest.rest
    have := (Array.getElem?_eq_some_iff.1 h2).1
    omega
  have HTB := Lib.hid htb
  have CH := fun w => Lib.hid (kHides_any nm w (knd_here w))
  rw [hnm2] at CH
  obtain ⟨hh, hhh⟩ : ∃ hh, hidN t.name = hh := ⟨_, rfl⟩
  rw [hhh] at CH
  have HHH := Lib.hid hhh
  have hbq : (nm.toList == [98, 111, 100, 121]) = decide (t.name = bodyL) := by
    rw [ByteArray.toList_eq, HNM2.out]
    exact Bool.eq_iff_iff.2 (by rw [beq_iff_eq, decide_eq_true_iff]; exact Iff.rfl)
  have hs : fl.size ≤ 1073741000 := by omega
  have hk : k ≤ 1000000 := by omega
  by_cases hbody : t.name = bodyL
  · rw [decide_eq_true hbody] at hbq
    have hh0 : hh = false := by rw [← HHH.out, hbody]; exact (show hidN bodyL = false by decide +kernel)
    subst hh0
    obtain ⟨LF, hLF⟩ : ∃ LF, (l.filter fun x => decide (x ≠ headL)) = LF := ⟨_, rfl⟩
    have HOP := Lib.hid (show openS ⟨l, k, fl⟩ t.name = LF by unfold openS; rw [if_pos hbody]; exact hLF)
    have hfc := filter_cnt headL l
    have HUN := Lib.hid (uncover_any M1.out HRL.out (by omega) (by omega))
    rw [hLF] at hfc HUN
    clear hbody hhh hLF hnmE hnm2 hX hX2 hsf hw1 hm1 hM hR hRR hkind htb
    go_enter Try.func28, Try.ntmps28
    go_wp2_with (fail)
    rw [HW1.out]
    refine HUN.out.mono ?_
    rintro e w2 ⟨rfl, v2, n2, hn2, m2⟩
    have M2 := Lib.hid m2
    clear m2 y0
    obtain ⟨y1, y2, y3⟩ := deed_facts M2.out
    try rw [HTB.out]
    go_wp2_with (fail)
    refine ((CH _).out).mono ?_
    rintro e w3 ⟨rfl, b3⟩
    have M3 := Lib.hid (M2.out.below (page_lies pg g b _ LF k fl n2 (cntN LF) HRL.out) b3)
    clear b3
    obtain ⟨y1, y2, y3⟩ := deed_facts M3.out
    obtain ⟨B, hB⟩ : ∃ B, decide (LF ≠ []) = B := ⟨_, rfl⟩
    have HHI := Lib.hid (hidden_any M3.out)
    rw [hB] at HHI
    have HB := Lib.hid hB
    clear hB
    go_wp2_with (fail)
    refine HHI.out.mono ?_
    rintro e w4 ⟨rfl, hw4⟩
    obtain rfl := hw4.symm
    cases B
    · have hl0 : LF = [] := Classical.byContradiction fun h => of_decide_eq_false HB.out h
      go_wp2_with (fail)
      refine (part_any M3.out HRL.out nm hs).mono ?_
      rintro e w5 ⟨rfl, m5⟩
      have M5 := Lib.hid m5
      clear m5
      rw [HNM2.out] at M5
      obtain ⟨y1, y2, y3⟩ := deed_facts M5.out
      go_wp2_with (fail)
      refine (keepMore_any M5.out HRL.out nm hk).mono ?_
      rintro e w6 ⟨rfl, m6⟩
      have M6 := Lib.hid m6
      clear m6
      rw [HNM2.out] at M6
      go_wp2
      refine bodyPost_end (results_none rfl _ _ _) (by rfl) ?_
      exact deed_done (n' := n2) (r' := ⟨[], k + oneIf (keeN t.name), linesF t.name fl⟩) HRR.out (by rw [renT_start _ t HK.out, HHH.out, if_neg Bool.false_ne_true, HOP.out, if_pos hl0]) (by simp only [List.length_nil]; omega) (by have h6 := M6.out; rw [hl0] at h6; exact h6)
    · have hl0 : ¬ LF = [] := of_decide_eq_true HB.out
      go_wp2
      refine bodyPost_end (results_none rfl _ _ _) (by rfl) ?_
      exact deed_done (n' := n2) HRR.out (by rw [renT_start _ t HK.out, HHH.out, if_neg Bool.false_ne_true, HOP.out, if_neg hl0]) (by simp only; omega) M3.out
  · rw [decide_eq_false hbody] at hbq
    have HOP := Lib.hid (show openS ⟨l, k, fl⟩ t.name = l by unfold openS; rw [if_neg hbody])
    clear hbody hhh hnmE hnm2 hX hX2 hsf hw1 hm1 hM hR hRR hkind htb
    go_enter Try.func28, Try.ntmps28
    go_wp2_with (fail)
    rw [HW1.out]
    try rw [HTB.out]
    refine ((CH _).out).mono ?_
    rintro e w3 ⟨rfl, b3⟩
    have M3 := Lib.hid (M1.out.below (page_lies pg g b _ l k fl n (cntN l) HRL.out) b3)
    clear b3
    obtain ⟨y1, y2, y3⟩ := deed_facts M3.out
    cases hh
    · obtain ⟨B, hB⟩ : ∃ B, decide (l ≠ []) = B := ⟨_, rfl⟩
      have HHI := Lib.hid (hidden_any M3.out)
      rw [hB] at HHI
      have HB := Lib.hid hB
      clear hB
      go_wp2_with (fail)
      refine HHI.out.mono ?_
      rintro e w4 ⟨rfl, hw4⟩
      obtain rfl := hw4.symm
      cases B
      · have hl0 : l = [] := Classical.byContradiction fun h => of_decide_eq_false HB.out h
        go_wp2_with (fail)
        refine (part_any M3.out HRL.out nm hs).mono ?_
        rintro e w5 ⟨rfl, m5⟩
        have M5 := Lib.hid m5
        clear m5
        rw [HNM2.out] at M5
        obtain ⟨y1, y2, y3⟩ := deed_facts M5.out
        go_wp2_with (fail)
        refine (keepMore_any M5.out HRL.out nm hk).mono ?_
        rintro e w6 ⟨rfl, m6⟩
        have M6 := Lib.hid m6
        clear m6
        rw [HNM2.out] at M6
        go_wp2
        refine bodyPost_end (results_none rfl _ _ _) (by rfl) ?_
        exact deed_done (n' := n) (r' := ⟨[], k + oneIf (keeN t.name), linesF t.name fl⟩) HRR.out (by rw [renT_start _ t HK.out, HHH.out, if_neg Bool.false_ne_true, HOP.out, if_pos hl0]) (by simp only [List.length_nil]; omega) (by have h6 := M6.out; rw [hl0] at h6; exact h6)
      · have hl0 : ¬ l = [] := of_decide_eq_true HB.out
        go_wp2
        refine bodyPost_end (results_none rfl _ _ _) (by rfl) ?_
        exact deed_done (n' := n) HRR.out (by rw [renT_start _ t HK.out, HHH.out, if_neg Bool.false_ne_true, HOP.out, if_neg hl0]) (by simp only; omega) M3.out
    · have hnm : nm.size ≤ 16777216 := by
        rw [Lib.size_eq, HNM2.out]; exact hid_short _ HHH.out
      go_wp2_with (fail)
      refine (cover_any M3.out HRL.out nm hnm (by omega) (by omega)).mono ?_
      rintro e w4 ⟨rfl, v4, m4⟩
      have M4 := Lib.hid m4
      clear m4
      rw [HNM2.out] at M4
      go_wp2
      refine bodyPost_end (results_none rfl _ _ _) (by rfl) ?_
      exact deed_done (n' := n + 1) HRR.out (by rw [renT_start _ t HK.out, HHH.out, if_pos rfl, HOP.out]) (by simp only [List.length_append, List.length_cons, List.length_nil]; omega) M4.out

set_option maxRecDepth 100000 in
set_option maxHeartbeats 16000000 in
theorem endD_any {w0 w : World} {pg : Nat} {g : Addr} {b : Nat} {v : Value} {l : List Txt} {k : Nat} {fl : FloP} {n : Nat} {R : Own} {bx : Nat} (hM : Made w0 w (PageS pg g b v l k fl n (cntN l) (Sep (CellO bx (boxC pg)) R))) (hR : Lies R) (t : TokP) (hkind : t.kind = 2) (ad : Option Addr) (ln cp : Nat)
    (hs : fl.size + t.text.length ≤ 1073741000) (hk : k ≤ 100000) (hl : l.length ≤ 100000) (hn : n ≤ 100000) (hsz : ∀ x ∈ l, x.length ≤ 16777216) :
    Calls Try.prog 34 #[tokA t ad ln cp, .pointer (some ⟨bx, 0, none⟩)] w (DeedP w0 pg g b (renT ⟨l, k, fl⟩ t) (n + l.length + 2) (Sep (CellO bx (boxC pg)) R)) := by
  obtain ⟨RR, hRR⟩ : ∃ RR, renT ⟨l, k, fl⟩ t = RR := ⟨_, rfl⟩
  have HRR := Lib.hid hRR
  rw [hRR]
  unfold tokA
  have HK := Lib.hid hkind
  rw [hkind]
  obtain ⟨nm, hnmE⟩ : ∃ nm : ByteArray, (⟨t.name.toArray⟩ : ByteArray) = nm := ⟨_, rfl⟩
  have hnm2 : nm.data.toList = t.name := by rw [← hnmE, List.toList_toArray]
  obtain ⟨X, hX⟩ : ∃ X : ByteArray, (⟨t.text.toArray⟩ : ByteArray) = X := ⟨_, rfl⟩
  have hX2 : X.data.toList = t.text := by rw [← hX, List.toList_toArray]
  have hXs : X.size = t.text.length := by rw [Lib.size_eq, hX2]
  rw [← hXs] at hs
  obtain ⟨sf, hsf⟩ : ∃ b, t.self = b := ⟨_, rfl⟩
  rw [hnmE, hX, hsf]
  have HNM2 := Lib.hid hnm2
  have HX2 := Lib.hid hX2
  obtain ⟨tb, htb⟩ : ∃ tb, w.heap.size = tb := ⟨_, rfl⟩
  have HRL0 := Lib.hid ((cellO_lies bx (boxC pg)).sep hR)
  have HRL := Lib.hid ((cellO_lies tb (tokC 2 nm X ad ln cp sf)).sep HRL0.out)
  have hm1 := (cellO_made hM (page_lies pg g b v l k fl n (cntN l) HRL0.out) (tokC 2 nm X ad ln cp sf)).imp (Imp.sink _ _ _ _ _ _ _ _ _ _ _)
  rw [htb] at hm1
  obtain ⟨w1, hw1⟩ : ∃ w1, w.alloc (tokC 2 nm X ad ln cp sf) = w1 := ⟨_, rfl⟩
  rw [hw1] at hm1
  have M1 := Lib.hid hm1
  have HW1 := Lib.hid (show w.alloc (.cells #[.int .i64 2, .string nm, .string X, .slice ad ln cp, .bool sf] 29) = w1 from hw1)
  have y0 : (w.alloc (.cells #[.int .i64 2, .string nm, .string X, .slice ad ln cp, .bool sf] 29)).cell? ⟨bx, 0, none⟩ = some (.pointer (some ⟨pg, 0, none⟩)) := by
    rw [HW1.out]
    exact (deed_facts hm1).2.2
  have y00 : w.cell? ⟨bx, 0, none⟩ = some (.pointer (some ⟨pg, 0, none⟩)) := by
    have h2 := cellO_is hM.rest.rest.rest.rest
    unfold boxC at h2
    rw [Lib.cell_of_heap h2]; rfl
  have y000 : bx ≠ w.heap.size := by
    have h2 := cellO_is hM.rest.rest.rest.rest
    have := (Array.getElem?_eq_some_iff.1 h2).1
    omega
  have HTB := Lib.hid htb
  have hs : fl.size ≤ 1073741000 := by omega
  have hk : k ≤ 1000000 := by omega
  have HSZ := Lib.hid hsz
  obtain ⟨wd, hwd⟩ : ∃ wd, w1.drew = wd := ⟨_, rfl⟩
  have M1d := Lib.hid (show Made w0 wd _ by rw [← hwd]; exact M1.out.below (page_lies pg g b v l k fl n (cntN l) HRL.out) (Below.refl _ _).drew)
  have hLK := run_look_cnt M1d.out.third nm
  rw [← hwd] at hLK
  have HWD := Lib.hid hwd
  clear hwd
  obtain ⟨c, hc⟩ : ∃ c, cntN l nm.data.toList = c := ⟨_, rfl⟩
  rw [hc] at hLK
  have hcz : c = 0 ↔ lastN l t.name = none := by rw [← hc, hnm2, cnt_zero, ← last_mem]
  obtain ⟨y1, y2, y3⟩ := deed_facts M1.out
  obtain ⟨z0, z1, z2, z3⟩ := page_cells M1.out
  clear z0 z1 z3 y2 hc
  by_cases hc0 : c = 0
  · have HLA := Lib.hid (hcz.1 hc0)
    subst hc0
    clear hcz hsz HSZ hnmE hnm2 hX hX2 hsf hw1 hm1 hM hR hRR hkind htb
    go_enter Try.func34, Try.ntmps34
    go_wp2
    rw [HW1.out]
    try rw [HTB.out]
    go_region
    all_goals
      (rw [HWD.out]
       obtain ⟨y1, y2, y3⟩ := deed_facts M1d.out
       have HHI := Lib.hid (hidden_any M1d.out)
       obtain ⟨B, hB⟩ : ∃ B, decide (l ≠ []) = B := ⟨_, rfl⟩
       rw [hB] at HHI
       have HB := Lib.hid hB
       clear hB
       go_wp2_with (fail)
       refine HHI.out.mono ?_
       rintro e w4 ⟨rfl, hw4⟩
       obtain rfl := hw4.symm
       cases B
       · have hl0 : l = [] := Classical.byContradiction fun h => of_decide_eq_false HB.out h
         go_wp2_with (fail)
         refine (part_any M1d.out HRL.out nm hs).mono ?_
         rintro e w5 ⟨rfl, m5⟩
         have M5 := Lib.hid m5
         clear m5
         rw [HNM2.out] at M5
         obtain ⟨y1, y2, y3⟩ := deed_facts M5.out
         go_wp2_with (fail)
         refine (keepLess_any M5.out HRL.out nm hk).mono ?_
         rintro e w6 ⟨rfl, m6⟩
         have M6 := Lib.hid m6
         clear m6
         rw [HNM2.out] at M6
         go_wp2
         refine bodyPost_end (results_none rfl _ _ _) (by rfl) ?_
         exact deed_done (n' := n) (r' := ⟨[], k - oneIf (keeN t.name), linesF t.name fl⟩) HRR.out (by rw [renT_end _ t HK.out]; simp only [HLA.out]; rw [if_pos hl0]) (by simp only [List.length_nil]; omega) (by have h6 := M6.out; rw [hl0] at h6; exact h6)
       · have hl0 : ¬ l = [] := of_decide_eq_true HB.out
         go_wp2
         refine bodyPost_end (results_none rfl _ _ _) (by rfl) ?_
         exact deed_done (n' := n) (r' := ⟨l, k, fl⟩) HRR.out (by rw [renT_end _ t HK.out]; simp only [HLA.out]; rw [if_neg hl0]) (by simp only; omega) M1d.out
)
  · obtain ⟨k0, hk0⟩ : ∃ k0, lastN l t.name = some k0 := by
      cases h : lastN l t.name with
      | none => exact absurd (hcz.2 h) hc0
      | some k0 => exact ⟨k0, rfl⟩
    have HLA := Lib.hid hk0
    have hd : decide ((0 : Int) < (c : Int)) = true := decide_eq_true (by omega)
    have hd2 : decide (0 < c) = true := decide_eq_true (by omega)
    have hkl : k0 < l.length := (last_some _ _ _ hk0).1
    clear hcz hsz hk0 hnmE hnm2 hX hX2 hsf hw1 hm1 hM hR hRR hkind htb
    go_enter Try.func34, Try.ntmps34
    go_wp2
    rw [HW1.out]
    try rw [HTB.out]
    go_region
    all_goals
      (rw [HWD.out]
       obtain ⟨y1, y2, y3⟩ := deed_facts M1d.out
       go_wp2_with (fail)
       refine (leave_any M1d.out HRL.out nm (by omega) (by omega) HSZ.out k0 (by rw [HNM2.out]; exact HLA.out)).mono ?_
       rintro e w5 ⟨rfl, v5, m5⟩
       have M5 := Lib.hid m5
       clear m5
       go_wp2
       refine bodyPost_end (results_none rfl _ _ _) (by rfl) ?_
       exact deed_done (n' := n + (l.length - k0)) (r' := ⟨l.take k0, k, fl⟩) HRR.out (by rw [renT_end _ t HK.out]; simp only [HLA.out]) (by simp only [List.length_take]; omega) M5.out)

set_option maxRecDepth 100000 in
set_option maxHeartbeats 16000000 in
theorem textD_any {w0 w : World} {pg : Nat} {g : Addr} {b : Nat} {v : Value} {l : List Txt} {k : Nat} {fl : FloP} {n : Nat} {R : Own} {bx : Nat} (hM : Made w0 w (PageS pg g b v l k fl n (cntN l) (Sep (CellO bx (boxC pg)) R))) (hR : Lies R) (t : TokP) (hkind : t.kind = 0) (ad : Option Addr) (ln cp : Nat)
    (hs : fl.size + t.text.length ≤ 1073741000) (hk : k ≤ 100000) (hl : l.length ≤ 100000) (_ : n ≤ 100000) :
    Calls Try.prog 36 #[tokA t ad ln cp, .pointer (some ⟨bx, 0, none⟩)] w (DeedP w0 pg g b (renT ⟨l, k, fl⟩ t) (n + l.length + 2) (Sep (CellO bx (boxC pg)) R)) := by
  obtain ⟨RR, hRR⟩ : ∃ RR, renT ⟨l, k, fl⟩ t = RR := ⟨_, rfl⟩
  have HRR := Lib.hid hRR
  rw [hRR]
  unfold tokA
  have HK := Lib.hid hkind
  rw [hkind]
  obtain ⟨nm, hnmE⟩ : ∃ nm : ByteArray, (⟨t.name.toArray⟩ : ByteArray) = nm := ⟨_, rfl⟩
  have hnm2 : nm.data.toList = t.name := by rw [← hnmE, List.toList_toArray]
  obtain ⟨X, hX⟩ : ∃ X : ByteArray, (⟨t.text.toArray⟩ : ByteArray) = X := ⟨_, rfl⟩
  have hX2 : X.data.toList = t.text := by rw [← hX, List.toList_toArray]
  have hXs : X.size = t.text.length := by rw [Lib.size_eq, hX2]
  rw [← hXs] at hs
  obtain ⟨sf, hsf⟩ : ∃ b, t.self = b := ⟨_, rfl⟩
  rw [hnmE, hX, hsf]
  have HNM2 := Lib.hid hnm2
  have HX2 := Lib.hid hX2
  obtain ⟨tb, htb⟩ : ∃ tb, w.heap.size = tb := ⟨_, rfl⟩
  have HRL0 := Lib.hid ((cellO_lies bx (boxC pg)).sep hR)
  have HRL := Lib.hid ((cellO_lies tb (tokC 0 nm X ad ln cp sf)).sep HRL0.out)
  have hm1 := (cellO_made hM (page_lies pg g b v l k fl n (cntN l) HRL0.out) (tokC 0 nm X ad ln cp sf)).imp (Imp.sink _ _ _ _ _ _ _ _ _ _ _)
  rw [htb] at hm1
  obtain ⟨w1, hw1⟩ : ∃ w1, w.alloc (tokC 0 nm X ad ln cp sf) = w1 := ⟨_, rfl⟩
  rw [hw1] at hm1
  have M1 := Lib.hid hm1
  have HW1 := Lib.hid (show w.alloc (.cells #[.int .i64 0, .string nm, .string X, .slice ad ln cp, .bool sf] 29) = w1 from hw1)
  have y0 : (w.alloc (.cells #[.int .i64 0, .string nm, .string X, .slice ad ln cp, .bool sf] 29)).cell? ⟨bx, 0, none⟩ = some (.pointer (some ⟨pg, 0, none⟩)) := by
    rw [HW1.out]
    exact (deed_facts hm1).2.2
  have y00 : w.cell? ⟨bx, 0, none⟩ = some (.pointer (some ⟨pg, 0, none⟩)) := by
    have h2 := cellO_is hM.rest.rest.rest.rest
    unfold boxC at h2
    rw [Lib.cell_of_heap h2]; rfl
  have y000 : bx ≠ w.heap.size := by
    have h2 := cellO_is hM.rest.rest.rest.rest
    have := (Array.getElem?_eq_some_iff.1 h2).1
    omega
  have HTB := Lib.hid htb
  have HC := Lib.hid (show Hid True from Lib.hid trivial)
  clear HC
  have HHI := Lib.hid (hidden_any M1.out)
  obtain ⟨B, hB⟩ : ∃ B, decide (l ≠ []) = B := ⟨_, rfl⟩
  rw [hB] at HHI
  have HB := Lib.hid hB
  clear hB
  cases B
  · have hl0 : l = [] := Classical.byContradiction fun h => of_decide_eq_false HB.out h
    have HL0 := Lib.hid hl0
    obtain ⟨wd, hwd⟩ : ∃ wd, w1.drew = wd := ⟨_, rfl⟩
    have M1d := Lib.hid (show Made w0 wd _ by rw [← hwd]; exact M1.out.below (page_lies pg g b v l k fl n (cntN l) HRL.out) (Below.refl _ _).drew)
    have HWD := Lib.hid hwd
    clear hwd
    obtain ⟨kb, hkb⟩ : ∃ kb, decide (0 < k) = kb := ⟨_, rfl⟩
    have HKB := Lib.hid hkb
    have hkb2 : decide ((0 : Int) < (k : Int)) = kb := by rw [← hkb]; exact Bool.eq_iff_iff.2 (by rw [decide_eq_true_iff, decide_eq_true_iff]; omega)
    have HP := Lib.hid (pagePut M1d.out HRL.out X kb (by omega))
    obtain ⟨y1, y2, y3⟩ := deed_facts M1.out
    obtain ⟨z0, z1, z2, z3⟩ := page_cells M1.out
    clear hl0 y1 z1 z2 hnmE hnm2 hX hX2 hsf hw1 hm1 hM hR hRR hkind htb
    go_enter Try.func36, Try.ntmps36
    go_wp2_with (fail)
    rw [HW1.out]
    try rw [HTB.out]
    refine HHI.out.mono ?_
    rintro e w4 ⟨rfl, hw4⟩
    obtain rfl := hw4.symm
    go_wp2
    go_still_tail 11, (by kernel_rfl)
    change wpList _ _ _ _ _ w1.drew
    rw [HWD.out]
    clear y2 y3 z0 z3
    go_wp2_with (go_at_call 37; refine HP.out.mono ?_; rintro e w5 ⟨rfl, m5⟩; have M5 := Lib.hid m5; clear m5)
    refine bodyPost_end (results_none rfl _ _ _) (by rfl) ?_
    exact deed_done (n' := n) (r' := ⟨[], k, putL kb fl t.text⟩) HRR.out (by rw [renT_text _ t HK.out, if_pos HL0.out, HKB.out]) (by simp only [List.length_nil]; omega) (by have h6 := M5.out; rw [HX2.out, HL0.out] at h6; exact h6)
  · have hl0 : ¬ l = [] := of_decide_eq_true HB.out
    clear hnmE hnm2 hX hX2 hsf hw1 hm1 hM hR hRR hkind htb
    go_enter Try.func36, Try.ntmps36
    go_wp2_with (fail)
    rw [HW1.out]
    try rw [HTB.out]
    refine HHI.out.mono ?_
    rintro e w4 ⟨rfl, hw4⟩
    obtain rfl := hw4.symm
    go_wp2
    refine bodyPost_end (results_none rfl _ _ _) (by rfl) ?_
    exact deed_done (n' := n) (r' := ⟨l, k, fl⟩) HRR.out (by rw [renT_text _ t HK.out, if_neg hl0]) (by simp only; omega) M1.out

end Go.Proofs.Ytappdjhhaohejaa
