/-
  What the laws of layer 18 do to a flow, the program's and the document's; what they ask of a byte.
-/
import Derived.Test.YtddikahfenjnaaaFloS
import Derived.Test.YtddikahfenjnaaaFloO
import Derived.Test.YtddikahfenjnaaaFloActs
namespace Go.Proofs.Ytddikahfenjnaaa
open Go.RowKit Go.Lib

theorem act_other (f : FloP) (a : ActP) (h0 : a.kind ≠ 0) (h1 : a.kind ≠ 1) (h2 : a.kind ≠ 2) : actF f a = f := by
  unfold actF; rw [if_neg h0, if_neg h1, if_neg h2]

set_option maxRecDepth 100000 in
set_option maxHeartbeats 4000000 in
theorem doesM_any (w0 w : World) (g : Addr) (f : FloP) (R : Own) (hR : Lies R) (h : Flo w0 w g f R) (a : ActP) (hs : f.size + a.s.length ≤ 1073741824) (ha : ActOk a) :
    Calls Try.prog 12 #[.pointer (some g), aggA a] w fun e w' => e = .returned (.tuple #[]) ∧ Flo w0 w' g (actF f a) R := by
  have hsz : (⟨a.s.toArray⟩ : ByteArray).size = a.s.length := by rw [Lib.size_eq, List.toList_toArray]
  have hL := flo_lies g f hR
  have HM := Lib.hid (fun o => h.below hL ((Below.refl w.heap.size w).alloc (Nat.le_refl _) o))
  have CP := fun w' h => Lib.hid (putM_any w0 w' g f R hR h ⟨a.s.toArray⟩ a.keep (by omega))
  have CB := fun w' h => Lib.hid (breakM_any w0 w' g f R hR h a.n (by omega) ha)
  have CL := fun w' h => Lib.hid (lineM_any w0 w' g f R hR h (by omega))
  rw [show (⟨a.s.toArray⟩ : ByteArray).data.toList = a.s by rw [List.toList_toArray]] at CP
  obtain ⟨G, hG⟩ : ∃ G, actF f a = G := ⟨_, rfl⟩
  have HG := Lib.hid hG
  rw [hG]
  have hk0 : a.kind = 0 → putL a.keep f a.s = G := fun e => by rw [← hG]; unfold actF; rw [if_pos e]
  have hk1 : a.kind = 1 → brkF a.n f = G := fun e => by rw [← hG]; unfold actF; rw [if_neg (by rw [e]; decide), if_pos e]
  have hk2 : a.kind = 2 → lineF f = G := fun e => by rw [← hG]; unfold actF; rw [if_neg (by rw [e]; decide), if_neg (by rw [e]; decide), if_pos e]
  have hk3 : a.kind ≠ 0 → a.kind ≠ 1 → a.kind ≠ 2 → f = G := fun h0 h1 h2 => by rw [← hG, act_other f a h0 h1 h2]
  unfold aggA
  obtain ⟨k, hk⟩ : ∃ k, a.kind = k := ⟨_, rfl⟩
  obtain ⟨S, hS⟩ : ∃ S : ByteArray, (⟨a.s.toArray⟩ : ByteArray) = S := ⟨_, rfl⟩
  obtain ⟨kp, hkp⟩ : ∃ k, a.keep = k := ⟨_, rfl⟩
  obtain ⟨n, hn⟩ : ∃ k, a.n = k := ⟨_, rfl⟩
  rw [hS] at CP
  rw [hkp] at CP
  rw [hn] at CB
  rw [hk] at hk0 hk1 hk2 hk3 ⊢
  rw [hkp] at hk0
  rw [hn] at hk1
  rw [hS, hkp, hn]
  clear hG hsz hs ha h hk hS hkp hn
  by_cases c0 : k = 0
  · rw [hk0 c0] at CP
    subst c0
    clear hk0 hk1 hk2 hk3 CB CL
    go_enter Try.func12, Try.ntmps12
    go_wp2_with (fail)
    refine (CP _ (HM.out _)).out.mono ?_
    rintro e w1 ⟨rfl, m1⟩
    have M1 := Lib.hid m1
    clear m1
    go_wp2
    refine bodyPost_end (results_none rfl _ _ _) rfl ?_
    exact ⟨rfl, M1.out⟩
  · have b0 : (k == 0) = false := beq_eq_false_iff_ne.2 c0
    by_cases c1 : k = 1
    · rw [hk1 c1] at CB
      subst c1
      clear hk0 hk1 hk2 hk3 CP CL c0 b0
      go_enter Try.func12, Try.ntmps12
      go_wp2_with (fail)
      refine (CB _ (HM.out _)).out.mono ?_
      rintro e w1 ⟨rfl, m1⟩
      have M1 := Lib.hid m1
      clear m1
      go_wp2
      refine bodyPost_end (results_none rfl _ _ _) rfl ?_
      exact ⟨rfl, M1.out⟩
    · have b1 : (k == 1) = false := beq_eq_false_iff_ne.2 c1
      by_cases c2 : k = 2
      · rw [hk2 c2] at CL
        subst c2
        clear hk0 hk1 hk2 hk3 CP CB c0 b0 c1 b1
        go_enter Try.func12, Try.ntmps12
        go_wp2_with (fail)
        refine (CL _ (HM.out _)).out.mono ?_
        rintro e w1 ⟨rfl, m1⟩
        have M1 := Lib.hid m1
        clear m1
        go_wp2
        refine bodyPost_end (results_none rfl _ _ _) rfl ?_
        exact ⟨rfl, M1.out⟩
      · have b2 : (k == 2) = false := beq_eq_false_iff_ne.2 c2
        have e3 := hk3 c0 c1 c2
        subst e3
        clear hk0 hk1 hk2 hk3 CP CB CL c0 c1 c2 HG
        go_enter Try.func12, Try.ntmps12
        go_wp2
        refine bodyPost_end (results_none rfl _ _ _) rfl ?_
        exact ⟨rfl, HM.out _⟩

theorem blk_int (c : UInt8) : blkB c = (((c.toNat : Int) == 9) || ((c.toNat : Int) == 10) || ((c.toNat : Int) == 12) || ((c.toNat : Int) == 13) || ((c.toNat : Int) == 32)) := by
  unfold blkB
  rw [show (((c.toNat : Nat) : Int) == 9) = (c == 9) from u8_test c 9 (by decide), show (((c.toNat : Nat) : Int) == 10) = (c == 10) from u8_test c 10 (by decide), show (((c.toNat : Nat) : Int) == 12) = (c == 12) from u8_test c 12 (by decide),
    show (((c.toNat : Nat) : Int) == 13) = (c == 13) from u8_test c 13 (by decide), show (((c.toNat : Nat) : Int) == 32) = (c == 32) from u8_test c 32 (by decide)]
set_option maxRecDepth 100000 in
set_option maxHeartbeats 2000000 in
theorem blank18_any (c : UInt8) (q : Int) (w : World) (hq : (c.toNat : Int) = q) :
    Calls Try.prog 15 #[.int .u8 q] w fun e w' => e = .returned (.bool (blkB c)) ∧ w' = w := by
  have hlt := c.toNat_lt
  have hb := blk_int c
  rw [hq] at hb
  rw [hb]
  clear hb
  have h0 : 0 ≤ q ∧ q < 256 := by omega
  clear hq hlt
  cases h9 : (q == 9) <;> cases h10 : (q == 10) <;> cases h12 : (q == 12) <;> cases h13 : (q == 13) <;> cases h32 : (q == 32)
  all_goals first
    | (exfalso; simp only [beq_iff_eq] at h9 h10 h12 h13 h32; omega)
    | (go_enter Try.func15, Try.ntmps15
       go_wp2
       go_ret
       exact ⟨rfl, rfl⟩)
theorem one_plainF (w : World) (q : Int) (c : UInt8) (h : (c.toNat : Int) = q) :
    (convert 36 9 (.slice (some ⟨w.heap.size, 0, none⟩) 1 1)).run Try.prog (w.alloc (.cells #[.int .u8 q] 5)) = .ok (.string ⟨#[c]⟩) (w.alloc (.cells #[.int .u8 q] 5)) := by
  refine run_convert_bytes_back (P := Try.prog) _ 36 9 5 ⟨w.heap.size, 0, none⟩ 1 [c] Try.underlying36 Try.underlying5 Try.underlying9 ?_
  intro j hj
  have : j = 0 := by simp at hj; exact hj
  subst this
  rw [show ((⟨w.heap.size, 0, none⟩ : Addr).add 0) = ⟨w.heap.size, 0, none⟩ from rfl]
  show (w.alloc (.cells #[.int .u8 q] 5)).cell? _ = _
  rw [Lib.cell_of_heap (heap_alloc_new w _), ← h]
  rfl
theorem flo_more {w0 w : World} {g : Addr} {f : FloP} {R : Own} (hR : Lies R) (h : Flo w0 w g f R) (o : Obj) : Flo w0 (w.alloc o) g f R := h.below (flo_lies g f hR) ((Below.refl _ w).alloc (Nat.le_refl _) o)
/-- no flow grows beyond what is put in, and the breaks -/
theorem acts_size : ∀ (l : List ActP) (f : FloP) (n : Nat), (∀ a ∈ l, a.s.length ≤ n) → (actsF f l).size ≤ f.size + l.length * (n + 100)
  | [], f, n, _ => by rw [actsF_nil]; simp
  | a :: l, f, n, h => by
    rw [actsF_cons]
    have h1 := acts_size l (actF f a) n (fun b hb => h b (.tail _ hb))
    have h2 := act_size f a
    have h3 := h a (.head _)
    rw [List.length_cons, Nat.add_mul]
    omega
theorem acts_step (f : FloP) (L : List ActP) (i : Nat) (h : i < L.length) : actF (actsF f (L.take i)) L[i] = actsF f (L.take (i + 1)) := by
  rw [List.take_succ_eq_append_getElem h, actsF_app]; rfl
theorem acts_few (L : List ActP) (i : Nat) (hl : L.length ≤ 60) (hs : ∀ a ∈ L, a.s.length ≤ 100) : (actsF flo0 (L.take i)).size ≤ 12000 := by
  have h := acts_size (L.take i) flo0 100 (fun a ha => hs a (List.mem_of_mem_take ha))
  have h1 : (L.take i).length ≤ 60 := by rw [List.length_take]; omega
  have h2 : flo0.size = 0 := rfl
  omega
end Go.Proofs.Ytddikahfenjnaaa
