/-
  The program's Render of layer 19.
-/
import Derived.Test.YtajpoodpbbbkfaaGreatDoorRB
set_option maxHeartbeats 16000000
set_option maxRecDepth 100000
namespace Go.Proofs.YtajpoodpbbbkfaaGreatDoor
open Go.RowKit Go.Lib
def pn (w:World):Prop:=im w
theorem pn.below {w w':World} {n:Nat} (h:pn w) (hb:Below n w w'):pn w':=im.below h hb
theorem KE (w:World):pn w:=lD w
def l7 (bx:Nat):Int→Option Value:=fun j=>
 if j=0 then some (.func (.func 145) #[] #[.pointer (some ⟨bx,0,none⟩)])
 else if j=2 then some (.func (.func 143) #[] #[.pointer (some ⟨bx,0,none⟩)])
 else if j=1 then some (.func (.func 136) #[] #[.pointer (some ⟨bx,0,none⟩)])
 else none
theorem rH (w:World):(zeroValue 114).run Tryz.prog w= .ok .nilFunc w:=by kernel_rfl
theorem GH {w0 w:World} {R:Own} (hM:ax w0 w R) (hR:bC R) (pg:Nat):Calls Tryz.prog 93 #[.pointer (some ⟨pg,0,none⟩)] w fun e w'=>∃mb bx,e= .returned (.map (some mb))∧ax w0 w' (bI (Na mb 3 .nilFunc (l7 bx)) (bI (cF bx (iv pg)) R)):=by
 have hmm:=@run_makeMap Tryz.prog
 have hL:=(aI w.heap.size (iv pg)).sep hR
 have M0:=Lib.hid (Kz (gw hM hR (iv pg)) hL .nilFunc)
 have HL:=Lib.hid hL
 unfold iv at M0
 have e0:(w.alloc (.cells #[.pointer (some ⟨pg,0,none⟩)] 106)).heap.size=w.heap.size+1:=by simp
 rw [e0] at M0
 clear hM hL hR e0
 go_enter Tryz.func93,Tryz.ntmps93
 go_wp2_with (first
  |(refine fW rfl _ _ Tryz.underlying112 _ _ _ rfl M2.out HL.out (by decide) rfl 0 (by decide) rfl (.func (.func 145) #[] #[.pointer (some ⟨w.heap.size,0,none⟩)]) rfl ?_;intro w3 m3;have M3:=Lib.hid m3;clear m3)
  |(refine fW rfl _ _ Tryz.underlying112 _ _ _ rfl M1.out HL.out (by decide) rfl 2 (by decide) rfl (.func (.func 143) #[] #[.pointer (some ⟨w.heap.size,0,none⟩)]) rfl ?_;intro w2 m2;have M2:=Lib.hid m2;clear m2)
  |(refine fW rfl _ _ Tryz.underlying112 _ _ _ rfl M0.out HL.out (by decide) rfl 1 (by decide) rfl (.func (.func 136) #[] #[.pointer (some ⟨w.heap.size,0,none⟩)]) rfl ?_;intro w1 m1;have M1:=Lib.hid m1;clear m1))
 go_ret
 exact ⟨_,w.heap.size,rfl,M3.out⟩
theorem GI (r:eN) (t:aq):(dz r t).kept≤r.kept+1:=by
 have h1:j0 (k5 t.name)≤1:=by unfold j0;split<;>omega
 unfold dz
 split
 ·split
  ·simp only;omega
  ·split
   ·simp only;omega
   ·simp only;omega
 ·split
  ·split
   ·simp only;omega
   ·split
    ·simp only;omega
    ·omega
  ·split
   ·simp only;omega
   ·omega
def yg (w0:World) (pg:Nat) (g:Addr) (b:Nat) (R:Own) (T:List aq) (i:Nat) (w:World):Prop:=
 ∃(r:eN) (n:Nat) (v:Value),n+r.opn.length≤2*i∧r.kept≤i∧r.flow.size≤i*65700∧xK r∧ax w0 w (bM pg g b v r.opn r.kept r.flow n (bo r.opn) R)∧renR r (T.drop i)=renR lK T
theorem C9 {w0 w:World} {pg:Nat} {g:Addr} {b:Nat} {R:Own} {T:List aq} {i:Nat} (h:yg w0 pg g b R T i w):Below w0.heap.size w0 w:=by
 obtain ⟨r,n,v,-,-,-,-,hM,-⟩:=h
 exact hM.bel
theorem Bj {w0 w':World} {pg:Nat} {g:Addr} {b:Nat} {R:Own} {T:List aq} {i:Nat} (hi:i<T.length) (t:aq) (ht:T[i]=t) (htx:t.text.length≤65536) {r:eN} {n:Nat} (h1:n+r.opn.length≤2*i) (h2:r.kept≤i) (h3:r.flow.size≤i*65700) (h4:xK r) (h6:renR r (T.drop i)=renR lK T) {e:Ending} (hd:ww w0 pg g b (dz r t) (n+r.opn.length+2) R e w'):yg w0 pg g b R T (i+1) w':=by
 obtain ⟨-,v',n',hn,hM⟩:=hd
 have k1:=GI r t
 have k2:=FM r t
 refine ⟨dz r t,n',v',by omega,by omega,by omega,Mh r t h4,hM,?_⟩
 ·rw [←h6,←List.getElem_cons_drop hi,ht];rfl
theorem Nc (a : Option Addr) (len cap : Nat) (T : List aq) (w : World) (hT : fS w a len cap T) (hlen : len ≤ 4096) (htx : ∀ t ∈ T, t.text.length ≤ 65536) (_ : pn w) :
    Calls Tryz.prog 49 #[.slice a len cap] w fun e w' => e = .returned (.string ⟨(p7 T).toArray⟩) ∧ Below w.heap.size w w' := by
  have hmm := @run_makeMap Tryz.prog
  have hll := hT.1
  have hlc := hT.2.1
  have hm := hT.2.2.1
  unfold maxLen at hm
  have HT := Lib.hid hT
  have HX := Lib.hid htx
  obtain ⟨Z, hZ⟩ : ∃ Z, (⟨(p7 T).toArray⟩ : ByteArray) = Z := ⟨_, rfl⟩
  rw [hZ]
  have HZ := Lib.hid hZ
  have HNEW := Lib.hid (Cp w)
  clear hT htx hZ
  go_enter Tryz.func49, Tryz.ntmps49
  go_wp2_with (fail)
  refine HNEW.out.mono ?_
  rintro e w1 ⟨g, F, rfl, hF, hnew, hbel⟩
  have m1 := (ax.nothing w).more bC.emp hbel hF hnew
  have m2 := z8 (Gu m1 ((cQ g io).sep bC.emp)) ((dd _ 0 _).sep ((cQ g io).sep bC.emp))
  have m3 := gw m2 ((aS _ _).sep ((dd _ 0 _).sep ((cQ g io).sep bC.emp))) (nk g (.slice none 0 0) w1.heap.size 0)
  obtain ⟨w3, hw3⟩ : ∃ w3, (w1.alloc (.map #[] 0)).alloc (nk g (.slice none 0 0) w1.heap.size 0) = w3 := ⟨_, rfl⟩
  obtain ⟨pg, hpg⟩ : ∃ pg, w1.heap.size + 1 = pg := ⟨_, rfl⟩
  have ez : (w1.alloc (.map #[] 0)).heap.size = pg := by rw [← hpg]; simp
  obtain ⟨b, hb⟩ : ∃ b, w1.heap.size = b := ⟨_, rfl⟩
  rw [hw3, ez, hb] at m3
  have HW3 := Lib.hid (show (w1.alloc (.map #[] 0)).alloc (.cells #[.pointer (some g), .slice none 0 0, .map (some w1.heap.size), .int .i64 0] 111) = w3 from hw3)
  have HPG := Lib.hid hpg
  have M3 := Lib.hid (show ax w w3 (bM pg g b (.slice none 0 0) [] 0 io 0 (bo []) D3) from (m3.third.imp (ff.left _ (eK fun t => rfl))).back)
  have CD := Lib.hid (GH M3.out (de pg g b _ [] 0 io 0 (bo []) bC.emp) pg)
  clear m1 m2 m3 hF hnew hbel hw3 hpg ez hb HNEW
  go_wp2_with (fail)
  rw [HW3.out]
  try rw [HPG.out]
  refine CD.out.mono ?_
  rintro e w4 ⟨mb, bx, rfl, m4⟩
  obtain ⟨RR, hRRe⟩ : ∃ RR, bI (Na mb 3 .nilFunc (l7 bx)) D3 = RR := ⟨_, rfl⟩
  have hRR : bC RR := by rw [← hRRe]; exact (Ky _ _ _ _).sep bC.emp
  have HFN := Lib.hid (show ∀ (u : World) (v : Value) (l : List ab) (k : Nat) (fl : aC) (n : Nat) (f : ab → Nat), ax w u (bM pg g b v l k fl n f (bI (cF bx (iv pg)) RR)) → kW u mb 3 .nilFunc (l7 bx) from fun u v l k fl n f h => by
    have h1 := h.rest.rest.rest.rest.rest
    rw [← hRRe] at h1
    exact OK h1)
  have HI0 := Lib.hid (show yg w pg g b (bI (cF bx (iv pg)) RR) T 0 w4 from ⟨lK, 0, .slice none 0 0, Nat.le_refl _, Nat.le_refl _, Nat.le_refl _, fun n hn => (by cases hn), by
    rw [← hRRe]
    exact (m4.turn.imp (ff.right _ (ff.sink _ _ _ _ _ _ _ _ _ _ _))).imp (ff.sink _ _ _ _ _ _ _ _ _ _ _), by rw [List.drop_zero]⟩)
  clear m4 M3 CD hRRe HW3
  go_wp2
  go_loopw [17] (fun v17 wr => ∃ i : Nat, v17 = .int .i64 (i : Int) ∧ i ≤ len ∧ Hid (yg w pg g b (bI (cF bx (iv pg)) RR) T i wr)) (fun v _ => len - (ae v).toNat)
  case atStart => exact ⟨0, rfl, Nat.zero_le _, HI0⟩
  case round =>
    obtain ⟨i, rfl, hi, HI⟩ := hrel
    clear HI0
    by_cases hlt : i < len
    · have hiT : i < T.length := by omega
      obtain ⟨x, ad, ln, cp, rfl, xc⟩ := HT.out.2.2.2 i hiT
      obtain ⟨x0, x1, x2, x3, x4⟩ := (xc.below (C9 HI.out) (Nat.le_refl _)).asked
      simp only at x0 x1 x2 x3 x4
      have hts := HX.out T[i] (List.getElem_mem hiT)
      obtain ⟨r, n, v, h1, h2, h3, hsz, hM, h6⟩ := HI.out
      obtain ⟨tt, ht⟩ : ∃ t, T[i] = t := ⟨_, rfl⟩
      rw [ht] at x0 x1 x2 x4 hts
      have HST := Lib.hid (fun w' (hd : ww w pg g b (dz r tt) (n + r.opn.length + 2) (bI (cF bx (iv pg)) RR) (.returned (.tuple #[])) w') => Bj hiT tt ht hts h1 h2 h3 hsz h6 hd)
      have hb5 := (Below.refl wr.heap.size wr).alloc (Nat.le_refl _) (.cells #[.int .i64 tt.kind, .string ⟨tt.name.toArray⟩, .string ⟨tt.text.toArray⟩, .slice ad ln cp, .bool tt.self] 33)
      have M5 := Lib.hid (hM.below (de pg g b v r.opn r.kept r.flow n (bo r.opn) ((aI bx (iv pg)).sep hRR)) hb5)
      have HF5 := Lib.hid (HFN.out _ _ _ _ _ _ _ M5.out)
      obtain ⟨l, k, fl⟩ := r
      simp only at h1 h2 h3 hsz M5
      obtain ⟨nm, hnmE⟩ : ∃ nm : ByteArray, (⟨tt.name.toArray⟩ : ByteArray) = nm := ⟨_, rfl⟩
      obtain ⟨X, hX⟩ : ∃ X : ByteArray, (⟨tt.text.toArray⟩ : ByteArray) = X := ⟨_, rfl⟩
      obtain ⟨sf, hsf⟩ : ∃ b, tt.self = b := ⟨_, rfl⟩
      have hT5 := hb5
      have HSZ := Lib.hid hsz
      clear hb5 hM h6 xc ht HI
      by_cases hK1 : tt.kind = 1
      · have HFK := Lib.hid (show (l7 bx 1).getD .nilFunc = .func (.func 136) #[] #[.pointer (some ⟨bx, 0, none⟩)] from rfl)
        have HFS := Lib.hid (show (l7 bx 1).isSome = true from rfl)
        have HC := Lib.hid (C8 M5.out hRR tt hK1 ad ln cp (by omega) (by omega) (by omega) (by omega))
        rw [show eu tt ad ln cp = .agg #[.int .i64 1, .string nm, .string X, .slice ad ln cp, .bool sf] by unfold eu; rw [hK1, hnmE, hX, hsf]] at HC
        rw [hK1] at x0 HF5 HC
        rw [hnmE] at x1 HF5 HC
        rw [hX] at x2 HF5 HC
        rw [hsf] at x4 HF5 HC
        clear hT5 M5 hK1 hnmE hX hsf hts hsz
        go_wp2_with (first
          | (at_lookup; refine fV rfl _ _ Tryz.underlying112 (rH _) _ _ rfl HF5.out rfl 1 rfl ?_; rw [HFK.out, HFS.out])
          | (go_at_call 136; refine HC.out.mono ?_; rintro e w6 hd; obtain rfl : e = .returned (.tuple #[]) := hd.1; have HI := Lib.hid (HST.out w6 hd); clear hd))
        go_roundw
        case rel => exact ⟨i + 1, by first | rfl | trivial | go_num, by omega, HI⟩
        case measure => simp [ae]; omega
      by_cases hK2 : tt.kind = 2
      · have HFK := Lib.hid (show (l7 bx 2).getD .nilFunc = .func (.func 143) #[] #[.pointer (some ⟨bx, 0, none⟩)] from rfl)
        have HFS := Lib.hid (show (l7 bx 2).isSome = true from rfl)
        have HC := Lib.hid (KD M5.out hRR tt hK2 ad ln cp (by omega) (by omega) (by omega) (by omega) (fun x hx => wv x (hsz x hx)))
        rw [show eu tt ad ln cp = .agg #[.int .i64 2, .string nm, .string X, .slice ad ln cp, .bool sf] by unfold eu; rw [hK2, hnmE, hX, hsf]] at HC
        rw [hK2] at x0 HF5 HC
        rw [hnmE] at x1 HF5 HC
        rw [hX] at x2 HF5 HC
        rw [hsf] at x4 HF5 HC
        clear hT5 M5 hK2 hnmE hX hsf hts hsz
        go_wp2_with (first
          | (at_lookup; refine fV rfl _ _ Tryz.underlying112 (rH _) _ _ rfl HF5.out rfl 2 rfl ?_; rw [HFK.out, HFS.out])
          | (go_at_call 143; refine HC.out.mono ?_; rintro e w6 hd; obtain rfl : e = .returned (.tuple #[]) := hd.1; have HI := Lib.hid (HST.out w6 hd); clear hd))
        go_roundw
        case rel => exact ⟨i + 1, by first | rfl | trivial | go_num, by omega, HI⟩
        case measure => simp [ae]; omega
      by_cases hK0 : tt.kind = 0
      · have HFK := Lib.hid (show (l7 bx 0).getD .nilFunc = .func (.func 145) #[] #[.pointer (some ⟨bx, 0, none⟩)] from rfl)
        have HFS := Lib.hid (show (l7 bx 0).isSome = true from rfl)
        have HC := Lib.hid (GG M5.out hRR tt hK0 ad ln cp (by omega) (by omega) (by omega) (by omega))
        rw [show eu tt ad ln cp = .agg #[.int .i64 0, .string nm, .string X, .slice ad ln cp, .bool sf] by unfold eu; rw [hK0, hnmE, hX, hsf]] at HC
        rw [hK0] at x0 HF5 HC
        rw [hnmE] at x1 HF5 HC
        rw [hX] at x2 HF5 HC
        rw [hsf] at x4 HF5 HC
        clear hT5 M5 hK0 hnmE hX hsf hts hsz
        go_wp2_with (first
          | (at_lookup; refine fV rfl _ _ Tryz.underlying112 (rH _) _ _ rfl HF5.out rfl 0 rfl ?_; rw [HFK.out, HFS.out])
          | (go_at_call 145; refine HC.out.mono ?_; rintro e w6 hd; obtain rfl : e = .returned (.tuple #[]) := hd.1; have HI := Lib.hid (HST.out w6 hd); clear hd))
        go_roundw
        case rel => exact ⟨i + 1, by first | rfl | trivial | go_num, by omega, HI⟩
        case measure => simp [ae]; omega
      · have hE5 : dz ⟨l, k, fl⟩ tt = ⟨l, k, fl⟩ := nI _ tt hK0 hK1 hK2
        have HI5 := Lib.hid (HST.out _ ⟨rfl, v, n, by rw [hE5]; simp only; omega, by rw [hE5]; exact M5.out⟩)
        obtain ⟨K, hK⟩ : ∃ K, tt.kind = K := ⟨_, rfl⟩
        have hFF : l7 bx K = none := by unfold l7; rw [← hK, if_neg hK0, if_neg hK2, if_neg hK1]
        have HFF := Lib.hid hFF
        rw [hK] at x0 HF5 HI5
        rw [hnmE] at x1 HF5 HI5
        rw [hX] at x2 HF5 HI5
        rw [hsf] at x4 HF5 HI5
        clear hT5 M5 hK hK0 hK1 hK2 hnmE hX hsf hts hsz hE5 hFF
        go_wp2_with (at_lookup; refine fV rfl _ _ Tryz.underlying112 (rH _) _ _ rfl HF5.out rfl K rfl ?_; rw [HFF.out])
        go_roundw
        case rel => exact ⟨i + 1, by first | rfl | trivial | go_num, by omega, HI5⟩
        case measure => simp [ae]; omega
    · obtain rfl : i = len := by omega
      obtain ⟨r, n, v, h1, h2, h3, -, hM, h6⟩ := HI.out
      have hTX := KB hM ((aI bx (iv pg)).sep hRR) (by omega)
      have hE : (⟨r.flow.told.toArray⟩ : ByteArray) = Z := by
        rw [← HZ.out]
        rw [List.drop_eq_nil_of_le (by omega)] at h6
        unfold p7
        rw [← h6]; rfl
      rw [hE] at hTX
      have HTX := Lib.hid hTX
      obtain ⟨c0, c1, c2, c3⟩ := bg hM
      clear h1 h2 h3 hM h6 hTX hE c1 c2 c3
      go_wp2_with (go_at_call 94; refine HTX.out.mono ?_; rintro e w6 ⟨rfl, m6⟩; have B6 := Lib.hid m6.bel; clear m6)
      go_ret
      exact ⟨rfl, B6.out⟩
end Go.Proofs.YtajpoodpbbbkfaaGreatDoor
