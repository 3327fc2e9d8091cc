/-
  What the document's answer of layer 5 says of lists: plain, List.
-/
import Derived.Test.YtanlneaolnkojaaRowMath
import Derived.Test.YtanlneaolnkojaaSrchTop
namespace Go.Proofs.Ytanlneaolnkojaa
open Go.RowKit Go.Lib

/-- a slice of rows that reads as a list -/
def IsRows (w : World) (a : Option Addr) (len cap : Nat) (l : List Ln) : Prop :=
  l.length = len ∧ len ≤ cap ∧ cap ≤ maxLen ∧ ∀ i (h : i < l.length), ∃ x, a = some x ∧ w.cell? (x.add (i * 2)) = some (strV l[i].1) ∧ w.cell? (x.add (i * 2 + 1)) = some (strV l[i].2)
theorem IsRows.below {w w' : World} {B : Nat} {a : Option Addr} {len cap : Nat} {l : List Ln} (h : IsRows w a len cap l) (hb : Below B w w') (hB : w.heap.size ≤ B) : IsRows w' a len cap l := by
  refine ⟨h.1, h.2.1, h.2.2.1, fun i hi => ?_⟩
  obtain ⟨x, hx, h1, h2⟩ := h.2.2.2 i hi
  have b1 := block_lt_of_cell h1
  have b2 := block_lt_of_cell h2
  exact ⟨x, hx, (hb.cell (by omega)).trans h1, (hb.cell (by omega)).trans h2⟩

theorem isRows_mk {w : World} {x : Addr} {len cap : Nat} (hl : len ≤ cap) (hm : cap ≤ maxLen) (h : ∀ i, i < len → ∃ k r : ByteArray, w.cell? (x.add (i * 2)) = some (.string k) ∧ w.cell? (x.add (i * 2 + 1)) = some (.string r)) : ∃ l, IsRows w (some x) len cap l := by
  have h2 : ∀ i, ∃ p : Ln, i < len → w.cell? (x.add (i * 2)) = some (strV p.1) ∧ w.cell? (x.add (i * 2 + 1)) = some (strV p.2) := by
    intro i
    by_cases hi : i < len
    · obtain ⟨k, r, a, b⟩ := h i hi
      exact ⟨(k.data.toList, r.data.toList), fun _ => ⟨a, b⟩⟩
    · exact ⟨([], []), fun h => absurd h hi⟩
  have hex : ∃ f : Nat → Ln, ∀ i, i < len → w.cell? (x.add (i * 2)) = some (strV (f i).1) ∧ w.cell? (x.add (i * 2 + 1)) = some (strV (f i).2) := ⟨fun i => Classical.choose (h2 i), fun i => Classical.choose_spec (h2 i)⟩
  obtain ⟨f, hf⟩ := hex
  refine ⟨(List.range len).map f, by simp, hl, hm, fun i hi => ⟨x, rfl, ?_⟩⟩
  have : i < len := by simpa using hi
  rw [List.getElem_map, List.getElem_range]
  exact hf i this
theorem add_succ (x : Addr) (n : Nat) : x.add (n + 1) = ⟨(x.add n).block, (x.add n).off + 1, none⟩ := by
  unfold Addr.add
  by_cases h : n = 0
  · subst h; rfl
  · rw [if_neg h, if_neg (by omega)]; rfl
theorem below_new {w wr : World} (hb : Below w.heap.size w wr) (o : Obj) : Below w.heap.size w (wr.alloc o) := hb.alloc hb.size o
theorem plain_step (s : ByteArray) (key : Bool) (i : Nat) (h : i < s.size) : plainB (s.data.toList.drop i) key = (!(s[i] == 10 || (key && s[i] == 32)) && plainB (s.data.toList.drop (i + 1)) key) := by
  rw [drop_at s i h]; rfl
theorem u8_beq (c : UInt8) (n : Nat) (hn : n < 256) : (((c.toNat : Nat) : Int) == (n : Int)) = (c == UInt8.ofNat n) := by
  rw [Bool.eq_iff_iff, beq_iff_eq, beq_iff_eq]
  refine ⟨u8_eq c n hn, fun e => ?_⟩
  subst e
  rw [UInt8.toNat_ofNat']; omega

set_option maxRecDepth 100000 in
set_option maxHeartbeats 1000000 in
theorem plain_any (s : ByteArray) (key : Bool) (w : World) (hs : s.size ≤ 1099511627776) :
    Calls Try.prog 15 #[.string s, .bool key] w fun e w' => e = .returned (.bool (plainB s.data.toList key)) ∧ w' = w := by
  obtain ⟨T, hT⟩ : ∃ T, plainB s.data.toList key = T := ⟨_, rfl⟩
  rw [hT]
  have HT := Lib.hid (show plainB (s.data.toList.drop 0) key = T from hT)
  clear hT
  go_enter Try.func15, Try.ntmps15
  go_wp2
  go_loopw [5] (fun v wr => ∃ (i : Nat), v = .int .i64 (i : Int) ∧ w = wr ∧ i ≤ s.size ∧ plainB (s.data.toList.drop i) key = T) (fun v _ => s.size - (intOf v).toNat)
  case atStart => exact ⟨0, rfl, rfl, Nat.zero_le _, HT.out⟩
  case round =>
    obtain ⟨i, rfl, rfl, hi, hT⟩ := hrel
    by_cases hlt : i < s.size
    · rw [plain_step s key i hlt] at hT
      have HK := Lib.hid hT
      clear hT HT
      have e1 := u8_beq s[i] 10 (by decide)
      have e2 := u8_beq s[i] 32 (by decide)
      obtain ⟨b1, hb1⟩ : ∃ b, (((s[i].toNat : Nat) : Int) == 10) = b := ⟨_, rfl⟩
      obtain ⟨b2, hb2⟩ : ∃ b, (((s[i].toNat : Nat) : Int) == 32) = b := ⟨_, rfl⟩
      have E1 := Lib.hid (e1.symm.trans hb1)
      have E2 := Lib.hid (e2.symm.trans hb2)
      clear e1 e2
      have HK2 := Lib.hid (show (!(b1 || (key && b2)) && plainB (s.data.toList.drop (i + 1)) key) = T by
        have := HK.out
        rwa [show (s[i] == 10) = b1 from E1.out, show (s[i] == 32) = b2 from E2.out] at this)
      clear HK E1 E2
      have fin : ∀ b, (b1 || (key && b2)) = b → Hid ((!b && plainB (s.data.toList.drop (i + 1)) key) = T) := fun b h => Lib.hid (by rw [← h]; exact HK2.out)
      cases b1 <;> cases key <;> cases b2 <;> have FI := fin _ rfl <;> clear fin HK2 <;> go_wp2
      all_goals first
        | (go_ret; exact ⟨ret_bool (by have := FI.out; simpa using this), rfl⟩)
        | (refine ⟨⟨i + 1, by simp, by simp, by omega, by have := FI.out; simpa using this⟩, by simp [intOf]; omega⟩)
        | trace_state
    · have HK := Lib.hid hT
      clear hT HT
      go_wp2
      go_ret
      exact ⟨ret_bool (by rw [← HK.out, List.drop_eq_nil_of_le (by rw [← Lib.size_eq]; omega)]; rfl), rfl⟩

set_option maxRecDepth 100000 in
set_option maxHeartbeats 4000000 in
theorem list_any (a : Option Addr) (len cap : Nat) (l : List Ln) (w : World) (hr : IsRows w a len cap l) (hl : len ≤ 1048576) :
    Calls Try.prog 9 #[.slice a len cap] w fun e w' => e = .returned (strV (flatL (pickL l))) ∧ Below w.heap.size w w' := by
  obtain ⟨T, hT⟩ : ∃ T, flatL (pickL l) = T := ⟨_, rfl⟩
  obtain ⟨P, hP⟩ : ∃ P, pickL l = P := ⟨_, rfl⟩
  rw [hT]
  rw [hP] at hT
  have HT := Lib.hid hT
  have HP : Hid ((l.drop 0).foldl takeR [] = P) := Lib.hid hP
  clear hT hP
  have hlen := hr.1
  have HR := Lib.hid hr
  clear hr
  go_enter Try.func9, Try.ntmps9
  go_wp2
  go_loopw [3, 4, 5] (fun v3 v4 v5 wr => ∃ (i : Nat) (st : List Ln), v3 = strV (flatL st) ∧ v4 = strV (lastK st) ∧ v5 = .int .i64 (i : Int) ∧ Below w.heap.size w wr ∧ i ≤ len ∧ Valid st ∧ Small st ∧ st.length ≤ i ∧ (l.drop i).foldl takeR st = P) (fun _ _ v _ => len - (intOf v).toNat)
  case atStart => exact ⟨0, [], rfl, rfl, rfl, Below.refl _ _, Nat.zero_le _, valid_nil, small_nil, Nat.le_refl _, HP.out⟩
  case round =>
    obtain ⟨i, st, rfl, rfl, rfl, hb, hi, hv, hsm, hsl, hT⟩ := hrel
    have hsz := hb.size
    by_cases hlt : i < len
    · obtain ⟨x, rfl, hc1, hc2⟩ := (HR.out.below hb (Nat.le_refl _)).2.2.2 i (by omega)
      obtain ⟨K, hK⟩ : ∃ K, l[i].1 = K := ⟨_, rfl⟩
      obtain ⟨R, hR⟩ : ∃ R, l[i].2 = R := ⟨_, rfl⟩
      rw [hK] at hc1
      rw [hR, add_succ] at hc2
      obtain ⟨L, hL⟩ : ∃ L, lastK st = L := ⟨_, rfl⟩
      obtain ⟨F, hF⟩ : ∃ F, flatL st = F := ⟨_, rfl⟩
      have HT2 := Lib.hid hT
      have HL := Lib.hid hL
      have HF := Lib.hid hF
      rw [hL, hF]
      clear hT hL hF
      have hd : l.drop i = (K, R) :: l.drop (i + 1) := by rw [List.drop_eq_getElem_cons (by omega), ← hK, ← hR]
      have HD := Lib.hid hd
      clear hK hR hd
      have P1 := fun w h => Lib.hid (plain_any ⟨K.toArray⟩ true w h)
      have P2 := fun w h => Lib.hid (plain_any ⟨R.toArray⟩ false w h)
      obtain ⟨p1, hp1⟩ : ∃ p, plainB K true = p := ⟨_, rfl⟩
      obtain ⟨p2, hp2⟩ : ∃ p, plainB R false = p := ⟨_, rfl⟩
      have k1 : (⟨K.toArray⟩ : ByteArray).data.toList = K := List.toList_toArray
      have k2 : (⟨R.toArray⟩ : ByteArray).data.toList = R := List.toList_toArray
      rw [k1, hp1] at P1
      rw [k2, hp2] at P2
      have z1 : (⟨K.toArray⟩ : ByteArray).size = K.length := by rw [Lib.size_eq, k1]
      have z2 : (⟨R.toArray⟩ : ByteArray).size = R.length := by rw [Lib.size_eq, k2]
      rw [z1] at P1
      rw [z2] at P2
      have HP1 := Lib.hid hp1
      have HP2 := Lib.hid hp2
      clear k1 k2 z1 z2 hp1 hp2
      unfold strV at *
      have hsz' : w.heap.size ≤ wr.heap.size := hsz
      by_cases q1 : L < K
      · have c1 : Op.bytesLess K L = false := by rw [less_eq]; exact decide_eq_false (List.lt_asymm q1)
        have c2 : (K == L) = false := by rw [beq_eq_false_iff_ne]; intro e; rw [e] at q1; exact List.lt_irrefl _ q1
        have HQ := Lib.hid q1
        clear q1
        by_cases q2 : K.length ≤ 40
        · have d1 : decide (40 < (K.length : Int)) = false := decide_eq_false (by omega)
          by_cases q3 : R.length ≤ 40
          · have d2 : decide (40 < (R.length : Int)) = false := decide_eq_false (by omega)
            cases p1
            · have hok : takeR st (K, R) = st := by
                unfold takeR okR
                rw [HL.out]
                refine if_neg ?_
                simp only [Bool.and_eq_true, decide_eq_true_eq]
                rintro ⟨g1, g2, g3, g4, g5⟩
                rw [HP1.out] at g4; cases g4
              have HS := fun o => Lib.hid (below_new hb o)
              have HT3 := Lib.hid (show (l.drop (i + 1)).foldl takeR st = P by
                have := HT2.out
                rwa [HD.out, List.foldl_cons, hok] at this)
              clear hok
              go_wp2_with (fail)
              refine (P1 _ (by omega)).out.mono ?_
              rintro e w1 ⟨rfl, rfl⟩
              go_wp2
              refine ⟨⟨i + 1, st, by rw [HF.out], by rw [HL.out], by simp, (HS _).out, by omega, hv, hsm, by omega, HT3.out⟩, by simp [intOf]; omega⟩
            · cases p2
              · have hok : takeR st (K, R) = st := by
                  unfold takeR okR
                  rw [HL.out]
                  refine if_neg ?_
                  simp only [Bool.and_eq_true, decide_eq_true_eq]
                  rintro ⟨g1, g2, g3, g4, g5⟩
                  rw [HP2.out] at g5; cases g5
                have HS := fun o => Lib.hid (below_new hb o)
                have HT3 := Lib.hid (show (l.drop (i + 1)).foldl takeR st = P by
                  have := HT2.out
                  rwa [HD.out, List.foldl_cons, hok] at this)
                clear hok
                go_wp2_with (fail)
                refine (P1 _ (by omega)).out.mono ?_
                rintro e w1 ⟨rfl, rfl⟩
                go_wp2_with (fail)
                refine (P2 _ (by omega)).out.mono ?_
                rintro e w1 ⟨rfl, rfl⟩
                go_wp2
                refine ⟨⟨i + 1, st, by rw [HF.out], by rw [HL.out], by simp, (HS _).out, by omega, hv, hsm, by omega, HT3.out⟩, by simp [intOf]; omega⟩
              · have hok0 : okR st (K, R) = true := by
                  unfold okR
                  rw [HL.out]
                  simp only [Bool.and_eq_true, decide_eq_true_eq]
                  exact ⟨HQ.out, q2, q3, HP1.out, HP2.out⟩
                obtain ⟨hv', hsm', hl'⟩ := takeR_valid (x := (K, R)) hv hsm
                have hfl := flat_take st (K, R) hok0
                have HLK := Lib.hid (show lastK (takeR st (K, R)) = K by unfold takeR; rw [if_pos hok0, lastK_add])
                have HS := fun o => Lib.hid (below_new hb o)
                have HT3 := Lib.hid (show (l.drop (i + 1)).foldl takeR (takeR st (K, R)) = P by
                  have := HT2.out
                  rwa [HD.out, List.foldl_cons] at this)
                have hfs := flat_small st hsm
                have hfl3 := flatL_len st
                rw [HF.out] at hfl3
                have HV := Lib.hid hv'
                have HSM := Lib.hid hsm'
                clear hok0 hv' hsm'
                by_cases h0 : st = []
                · have e0 : L.isEmpty = true := by rw [← HL.out, h0]; rfl
                  rw [if_pos h0, List.nil_append] at hfl
                  have HFL := Lib.hid hfl
                  have e2 : F = [] := by rw [← HF.out, h0]; rfl
                  have E2 := Lib.hid e2
                  clear h0 hfl e2
                  go_wp2_with (fail)
                  refine (P1 _ (by omega)).out.mono ?_
                  rintro e w1 ⟨rfl, rfl⟩
                  go_wp2_with (fail)
                  refine (P2 _ (by omega)).out.mono ?_
                  rintro e w1 ⟨rfl, rfl⟩
                  go_wp2
                  refine ⟨⟨i + 1, takeR st (K, R), ?_, by rw [HLK.out], by simp, (HS _).out, by omega, HV.out, HSM.out, by omega, HT3.out⟩, by simp [intOf]; omega⟩
                  rw [HFL.out]
                  refine congrArg Value.string (str_ext ?_)
                  simp [lineL, E2.out]
                · have e1 : L ≠ [] := by rw [← HL.out]; exact lastK_ne hv h0
                  have e0 : L.isEmpty = false := by simpa using e1
                  rw [if_neg h0, HF.out] at hfl
                  have HFL := Lib.hid hfl
                  have E1 := Lib.hid e1
                  clear h0 hfl e1
                  go_wp2_with (fail)
                  refine (P1 _ (by omega)).out.mono ?_
                  rintro e w1 ⟨rfl, rfl⟩
                  go_wp2_with (fail)
                  refine (P2 _ (by omega)).out.mono ?_
                  rintro e w1 ⟨rfl, rfl⟩
                  go_wp2
                  refine ⟨⟨i + 1, takeR st (K, R), ?_, by rw [HLK.out], by simp, (HS _).out, by omega, HV.out, HSM.out, by omega, HT3.out⟩, by simp [intOf]; omega⟩
                  rw [HFL.out]
                  refine congrArg Value.string (str_ext ?_)
                  simp [lineL]
          · have d2 : decide (40 < (R.length : Int)) = true := decide_eq_true (by omega)
            have hok : takeR st (K, R) = st := by
              unfold takeR okR
              rw [HL.out]
              refine if_neg ?_
              simp only [Bool.and_eq_true, decide_eq_true_eq]
              rintro ⟨g1, g2, g3, g4, g5⟩
              exact q3 g3
            have HS := fun o => Lib.hid (below_new hb o)
            have HT3 := Lib.hid (show (l.drop (i + 1)).foldl takeR st = P by
              have := HT2.out
              rwa [HD.out, List.foldl_cons, hok] at this)
            clear hok
            go_wp2
            refine ⟨⟨i + 1, st, by rw [HF.out], by rw [HL.out], by simp, (HS _).out, by omega, hv, hsm, by omega, HT3.out⟩, by simp [intOf]; omega⟩
        · have d1 : decide (40 < (K.length : Int)) = true := decide_eq_true (by omega)
          have hok : takeR st (K, R) = st := by
            unfold takeR okR
            rw [HL.out]
            refine if_neg ?_
            simp only [Bool.and_eq_true, decide_eq_true_eq]
            rintro ⟨g1, g2, g3, g4, g5⟩
            exact q2 g2
          have HS := fun o => Lib.hid (below_new hb o)
          have HT3 := Lib.hid (show (l.drop (i + 1)).foldl takeR st = P by
            have := HT2.out
            rwa [HD.out, List.foldl_cons, hok] at this)
          clear hok
          go_wp2
          refine ⟨⟨i + 1, st, by rw [HF.out], by rw [HL.out], by simp, (HS _).out, by omega, hv, hsm, by omega, HT3.out⟩, by simp [intOf]; omega⟩
      · have c0 : Op.bytesLess K L = true ∨ (K == L) = true := by
          rcases Std.lt_trichotomy K L with h | h | h
          · left; rw [less_eq]; exact decide_eq_true h
          · right; rw [beq_iff_eq]; exact h
          · exact absurd h q1
        have hok : takeR st (K, R) = st := by
          unfold takeR okR
          rw [HL.out]
          refine if_neg ?_
          simp only [Bool.and_eq_true, decide_eq_true_eq]
          rintro ⟨g1, g2, g3, g4, g5⟩
          exact q1 g1
        have HS := fun o => Lib.hid (below_new hb o)
        have HT3 := Lib.hid (show (l.drop (i + 1)).foldl takeR st = P by
          have := HT2.out
          rwa [HD.out, List.foldl_cons, hok] at this)
        clear hok
        clear q1
        rcases c0 with c1 | c1
        · go_wp2
          refine ⟨⟨i + 1, st, by rw [HF.out], by rw [HL.out], by simp, (HS _).out, by omega, hv, hsm, by omega, HT3.out⟩, by simp [intOf]; omega⟩
        · go_wp2
          refine ⟨⟨i + 1, st, by rw [HF.out], by rw [HL.out], by simp, (HS _).out, by omega, hv, hsm, by omega, HT3.out⟩, by simp [intOf]; omega⟩
    · have HT2 := Lib.hid hT
      have hii : i = len := by omega
      have HF := Lib.hid (show flatL st = T by
        have := HT2.out
        rw [List.drop_eq_nil_of_le (by omega), List.foldl_nil] at this
        rw [this]; exact HT.out)
      clear hT
      rw [HF.out]
      unfold strV at *
      go_wp2
      go_ret
      exact ⟨rfl, hb⟩

end Go.Proofs.Ytanlneaolnkojaa
