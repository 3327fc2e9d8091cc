/-
  Texts laid together: RenMath, RenRef, TokO, RenDo.
-/
import Derived.Test.YtajpoodpbbbkfaaGreatDoorKA
import Derived.Test.YtajpoodpbbbkfaaGreatDoorFA
import Derived.Test.YtajpoodpbbbkfaaGreatDoorPT
import Derived.Test.YtajpoodpbbbkfaaGreatDoorQI
import Derived.Deep.RegionLaw
set_option maxHeartbeats 16000000
set_option maxRecDepth 100000
namespace Go.Proofs.YtajpoodpbbbkfaaGreatDoor
open Go.RowKit Go.Lib
structure eN where
 opn:List ab
 kept:Nat
 flow:aC
def lK:eN:=⟨[],0,io⟩
def bH:ab:=[104,101,97,100]
def qN:ab:=[98,111,100,121]
def Ju:ab:=[98,114]
def pt (nm:ab) (f:aC):aC:=if nm=Ju then jU f else f
def bN (nm:ab) (f:aC):aC:=if 0<il nm then nC (il nm) (pt nm f) else pt nm f
def dn:List ab→ab→Option Nat
 |[],_=>none
 |x::l,nm=>match dn l nm with|some k=>some (k+1)|none=>if x=nm then some 0 else none
def g9 (r:eN) (nm:ab):List ab:=if nm=qN then r.opn.filter (fun n=>decide (n≠bH)) else r.opn
def j0 (b:Bool):Nat:=if b=true then 1 else 0
def dz (r:eN) (t:aq):eN:=
 if t.kind=1 then
  (if pX t.name=true then ⟨g9 r t.name++[t.name],r.kept,r.flow⟩ else if g9 r t.name=[] then ⟨[],r.kept+j0 (k5 t.name),bN t.name r.flow⟩ else ⟨g9 r t.name,r.kept,r.flow⟩)
 else if t.kind=2 then
  (match dn r.opn t.name with
   |some k=>⟨r.opn.take k,r.kept,r.flow⟩
   |none=>if r.opn=[] then ⟨[],r.kept-j0 (k5 t.name),bN t.name r.flow⟩ else r)
 else if t.kind=0∧r.opn=[] then ⟨[],r.kept,cP (decide (0<r.kept)) r.flow t.text⟩
 else r
def renR (r:eN) (L:List aq):eN:=L.foldl dz r
def p7 (L:List aq):ab:=(renR lK L).flow.told
theorem Jv (r:eN):renR r []=r:=rfl
theorem mC (r:eN) (t:aq) (L:List aq):renR r (t::L)=renR (dz r t) L:=rfl
theorem Jw (r:eN) (L M:List aq):renR r (L++M)=renR (renR r L) M:=List.foldl_append
theorem cD (r:eN) (t:aq) (h:t.kind=1):dz r t=(if pX t.name=true then ⟨g9 r t.name++[t.name],r.kept,r.flow⟩ else if g9 r t.name=[] then ⟨[],r.kept+j0 (k5 t.name),bN t.name r.flow⟩ else ⟨g9 r t.name,r.kept,r.flow⟩):=by
 unfold dz;rw [if_pos h]
theorem fR (r:eN) (t:aq) (h:t.kind=2):dz r t=(match dn r.opn t.name with|some k=>⟨r.opn.take k,r.kept,r.flow⟩|none=>if r.opn=[] then ⟨[],r.kept-j0 (k5 t.name),bN t.name r.flow⟩ else r):=by
 unfold dz;rw [if_neg (by rw [h];decide),if_pos h]
theorem dE (r:eN) (t:aq) (h:t.kind=0):dz r t=(if r.opn=[] then ⟨[],r.kept,cP (decide (0<r.kept)) r.flow t.text⟩ else r):=by
 unfold dz
 rw [if_neg (by rw [h];decide),if_neg (by rw [h];decide)]
 by_cases ho:r.opn=[]
 ·rw [if_pos ⟨h,ho⟩,if_pos ho]
 ·rw [if_neg (fun e=>ho e.2),if_neg ho]
theorem nI (r:eN) (t:aq) (h0:t.kind≠0) (h1:t.kind≠1) (h2:t.kind≠2):dz r t=r:=by
 unfold dz
 rw [if_neg h1,if_neg h2,if_neg (fun e=>h0 e.1)]
theorem oT.lines {M:aC→Prop} (h:oT M) (nm:ab) (f:aC) (hf:M f):M (bN nm f):=by
 have hb:M (pt nm f):=by
  unfold pt
  split
  ·exact h.line _ hf
  ·exact hf
 unfold bN
 split
 ·exact h.brk _ _ hb
 ·exact hb
theorem oT.ren {M:aC→Prop} (h:oT M) (r:eN) (t:aq) (hm:M r.flow):M (dz r t).flow:=by
 unfold dz
 split
 ·split
  ·exact hm
  ·split
   ·exact h.lines _ _ hm
   ·exact hm
 ·split
  ·split
   ·exact hm
   ·split
    ·exact h.lines _ _ hm
    ·exact hm
  ·split
   ·exact h.put _ _ _ hm
   ·exact hm
theorem oT.renR {M:aC→Prop} (h:oT M):∀(L:List aq) (r:eN),M r.flow→M (renR r L).flow
 |[],_,hm=>hm
 |t::L,r,hm=>h.renR L _ (h.ren r t hm)
theorem FL (L:List aq):qM (renR lK L).flow:=lG.renR L _ nD
theorem Cs (nm:ab) (f:aC):(bN nm f).size≤f.size+101:=by
 have h1:=jW f
 have hb:(pt nm f).size≤f.size+1:=by unfold pt;split<;>omega
 have h2:=zW (il nm) (pt nm f)
 unfold bN
 split<;>omega
theorem FM (r:eN) (t:aq):(dz r t).flow.size≤r.flow.size+t.text.length+101:=by
 have h1:=Cs t.name r.flow
 have h2:=gv (decide (0<r.kept)) t.text r.flow
 unfold dz
 split
 ·split
  ·simp only;omega
  ·split
   ·simp only;omega
   ·simp only;omega
 ·split
  ·split
   ·simp only;omega
   ·split
    ·simp only;omega
    ·omega
  ·split
   ·simp only;omega
   ·omega
theorem mE (nm:ab):∀l:List ab,nm∉l→dn l nm=none
 |[],_=>rfl
 |x::l,h=>by
  unfold dn
  rw [mE nm l (fun e=>h (.tail _ e)),if_neg (fun e=>h (by rw [e];exact .head _))]
theorem Ab (nm:ab) (a l:List ab) (k:Nat) (h:dn l nm=some k):dn (a++l) nm=some (a.length+k):=by
 induction a with
 |nil=>rw [List.nil_append,h,List.length_nil,Nat.zero_add]
 |cons x a ih=>
  show dn (x::(a++l)) nm=_
  unfold dn
  rw [ih,List.length_cons]
  simp only [Option.some.injEq]
  omega
theorem Jz (nm:ab) (l:List ab) (h:nm∉l):dn (nm::l) nm=some 0:=by
 unfold dn
 rw [mE nm l h,if_pos rfl]
theorem mF (nm:ab):∀(l:List ab) (k:Nat),dn l nm=some k→∃h:k<l.length,l[k]=nm
 |[],k,h=>by cases h
 |x::l,k,h=>by
  unfold dn at h
  cases h1:dn l nm with
  |some j=>
   rw [h1] at h
   obtain ⟨h2,h3⟩:=mF nm l j h1
   have:j+1=k:=by simpa using h
   subst this
   exact ⟨by rw [List.length_cons];omega,h3⟩
  |none=>
   rw [h1] at h
   simp only at h
   split at h
   ·rename_i hx
    have:0=k:=by simpa using h
    subst this
    exact ⟨by rw [List.length_cons];omega,hx⟩
   ·cases h
theorem Ac (nm:ab) (l:List ab):dn l nm=none↔nm∉l:=by
 refine ⟨fun h e=>?_,mE nm l⟩
 obtain ⟨a,b,rfl⟩:=List.append_of_mem e
 have:∀b:List ab,dn (nm::b) nm≠none:=fun b h=>by
  unfold dn at h
  split at h
  ·cases h
  ·rw [if_pos rfl] at h;cases h
 cases hb:dn (nm::b) nm with
 |none=>exact this b hb
 |some k=>rw [Ab nm a _ k hb] at h;cases h
def xK (r:eN):Prop:=∀n∈r.opn,pX n=true
theorem Mh (r:eN) (t:aq) (h:xK r):xK (dz r t):=by
 have hs:∀n∈g9 r t.name,pX n=true:=fun n hn=>by
  unfold g9 at hn
  split at hn
  ·exact h n (List.mem_filter.1 hn).1
  ·exact h n hn
 unfold dz
 split
 ·split
  ·rename_i hh
   intro n hn
   rcases List.mem_append.1 hn with hn|hn
   ·exact hs n hn
   ·rw [List.mem_singleton.1 hn];exact hh
  ·split
   ·intro n hn;cases hn
   ·exact hs
 ·split
  ·split
   ·exact fun n hn=>h n (List.mem_of_mem_take hn)
   ·split
    ·intro n hn;cases hn
    ·exact h
  ·split
   ·intro n hn;cases hn
   ·exact h
theorem Ow (keep:Bool) (f:aC) (c:UInt8) (h0:c≠0) (hb:iT c=false):dW keep f c=⟨cY f c,0,[]⟩:=by
 unfold dW
 rw [if_neg h0,if_neg (by rw [hb];exact Bool.false_ne_true)]
end Go.Proofs.YtajpoodpbbbkfaaGreatDoor
namespace Go.Proofs.YtajpoodpbbbkfaaGreatDoor
open Go.RowKit Go.Lib
def Ad (l:List ab) (nm:ab):Int:=match dn l nm with|some k=>(k:Int)|none=> -1
theorem JA (l:List ab) (nm:ab) (k:Nat) (h:k<l.length) (e:l[k]=nm) (hn:∀j (hj:j<l.length),k<j→l[j]≠nm):dn l nm=some k:=by
 have hd:l=l.take k++nm::l.drop (k+1):=by
  rw [←e,List.getElem_cons_drop h,List.take_append_drop]
 have hm:nm∉l.drop (k+1):=fun hm=>by
  obtain ⟨j,hj,he⟩:=List.getElem_of_mem hm
  rw [List.length_drop] at hj
  rw [List.getElem_drop] at he
  exact hn (k+1+j) (by omega) (by omega) he
 rw [hd,Ab nm _ _ 0 (Jz nm _ hm),List.length_take]
 congr 1;omega
theorem JB (l:List ab) (nm:ab) (hn:∀j (hj:j<l.length),l[j]≠nm):dn l nm=none:=mE nm l fun hm=>by
 obtain ⟨j,hj,he⟩:=List.getElem_of_mem hm
 exact hn j hj he
theorem lL (A:ab) (nm:ByteArray):((⟨A.toArray⟩:ByteArray).toList==nm.toList)=decide (A=nm.data.toList):=by
 rw [ib,List.toList_toArray]
theorem uE (a : Option Addr) (len cap : Nat) (l : List ab) (nm : ByteArray) (w : World) (h : xJ w (.slice a len cap) l) :
    Calls Tryz.prog 77 #[.slice a len cap, .string nm] w fun e w' => e = .returned (.int .i64 (Ad l nm.data.toList)) ∧ w' = w := by
  obtain ⟨a', cap', hv, hlc, hm, hc⟩ := h
  simp only [Value.slice.injEq] at hv
  obtain ⟨rfl, rfl, rfl⟩ := hv
  unfold maxLen at hm
  have HC := Lib.hid hc
  obtain ⟨n, hn⟩ : ∃ n, l.length = n := ⟨_, rfl⟩
  have HN := Lib.hid hn
  obtain ⟨R, hR⟩ : ∃ R, Ad l nm.data.toList = R := ⟨_, rfl⟩
  have HR := Lib.hid hR
  rw [hR, hn]
  rw [hn] at hlc
  clear hc hn hR
  go_enter Tryz.func77, Tryz.ntmps77
  go_wp2
  go_loopw [5] (fun v wr => ∃ k : Nat, v = .int .i64 ((k : Int) - 1) ∧ k ≤ n ∧ w = wr ∧ Hid (∀ j (h : j < l.length), k ≤ j → l[j] ≠ nm.data.toList)) (fun v _ => (ae v + 1).toNat)
  case atStart => exact ⟨n, by first | rfl | go_num, Nat.le_refl _, rfl, Lib.hid fun j hj h => absurd hj (by have := HN.out; omega)⟩
  case round =>
    obtain ⟨k, rfl, hk, rfl, HK⟩ := hrel
    by_cases h0 : k = 0
    · subst h0
      have HE : Hid (R = -1) := Lib.hid (by
        rw [← HR.out]; unfold Ad
        rw [JB l _ (fun j hj => HK.out j hj (Nat.zero_le _))])
      go_wp2
      go_ret
      exact ⟨az HE.out.symm, rfl⟩
    · obtain ⟨j, rfl⟩ : ∃ j, k = j + 1 := ⟨k - 1, by omega⟩
      have hjl : j < l.length := by have := HN.out; omega
      obtain ⟨x, rfl, xc⟩ := HC.out j hjl
      have he := lL l[j] nm
      have e1 : ((j + 1 : Nat) : Int) - 1 = (j : Int) := by omega
      obtain ⟨S, hS⟩ : ∃ S : ByteArray, (⟨l[j].toArray⟩ : ByteArray) = S := ⟨_, rfl⟩
      rw [hS] at he xc
      rw [e1]
      have g0 : (0 : Int) ≤ (j : Int) := by omega
      by_cases hx : l[j] = nm.data.toList
      · rw [decide_eq_true hx] at he
        have HE : Hid (R = (j : Int)) := Lib.hid (by
          rw [← HR.out]; unfold Ad
          rw [JA l _ j hjl hx (fun i hi h => HK.out i hi (by omega))])
        clear hx hS e1
        go_wp2
        go_ret
        exact ⟨az HE.out.symm, rfl⟩
      · rw [decide_eq_false hx] at he
        have HK2 := Lib.hid (show ∀ i (h : i < l.length), j ≤ i → l[i] ≠ nm.data.toList from fun i hi h => by
          rcases Nat.lt_or_eq_of_le h with h | h
          · exact HK.out i hi (by omega)
          · subst h; exact hx)
        clear hx hS e1
        go_wp2
        go_roundw
        case rel => exact ⟨j, by first | rfl | go_num, by omega, trivial, HK2⟩
        case measure => first | (simp [ae]; done) | (simp [ae]; omega)
theorem Af (l:List ab) (i:Nat) (h:i<l.length) (nm:ab):(l.take (i+1)).filter (fun x=>decide (x≠nm))=(l.take i).filter (fun x=>decide (x≠nm))++(if l[i]=nm then [] else [l[i]]):=by
 rw [List.take_succ_eq_append_getElem h,List.filter_append,List.filter_cons,List.filter_nil]
 by_cases hx:l[i]=nm
 ·rw [if_pos hx];simp [hx]
 ·rw [if_neg hx];simp [hx]
theorem p8 (a : Option Addr) (len cap : Nat) (l : List ab) (nm : ByteArray) (w : World) (h : xJ w (.slice a len cap) l) (hlen : l.length ≤ 536870912) :
    Calls Tryz.prog 74 #[.slice a len cap, .string nm] w fun e w' => ∃ v, e = .returned v ∧ w'.ownsRow w.heap.size 9 1 v (l.filter (fun x => decide (x ≠ nm.data.toList))).length (bA (l.filter (fun x => decide (x ≠ nm.data.toList)))) ∧ Below w.heap.size w w' := by
  obtain ⟨i0, hi0, hz0, hz1, hz2⟩ := info_parts vR
  obtain ⟨a', cap', hv, hlc, hm, hc⟩ := h
  simp only [Value.slice.injEq] at hv
  obtain ⟨rfl, rfl, rfl⟩ := hv
  unfold maxLen at hm
  have HC := Lib.hid hc
  obtain ⟨n, hn⟩ : ∃ n, l.length = n := ⟨_, rfl⟩
  have HN := Lib.hid hn
  obtain ⟨Lf, hLf⟩ : ∃ Lf, l.filter (fun x => decide (x ≠ nm.data.toList)) = Lf := ⟨_, rfl⟩
  have HLf := Lib.hid hLf
  rw [hn] at hlc hlen ⊢
  rw [hLf]
  clear hc hn hLf
  go_enter Tryz.func74, Tryz.ntmps74
  go_wp2
  go_loopw [5, 6] (fun v5 v6 wr => ∃ (i : Nat) (m : List ab), v6 = .int .i64 (i : Int) ∧ i ≤ n ∧ Below w.heap.size w wr ∧ Hid (m = (l.take i).filter (fun x => decide (x ≠ nm.data.toList))) ∧ wr.ownsRow w.heap.size 9 1 v5 m.length (bA m)) (fun _ v _ => n - (ae v).toNat)
  case atStart => exact ⟨0, [], rfl, Nat.zero_le _, Below.refl _ _, Lib.hid rfl, World.ownsRow_nil _ _ _ _⟩
  case round =>
    obtain ⟨i, m, rfl, hi, hb, HM, ho⟩ := hrel
    have HB := Lib.hid hb
    have HO := Lib.hid ho
    have hbs := hb.size
    clear hb ho
    by_cases hlt : i < n
    · have hil : i < l.length := by have := HN.out; omega
      obtain ⟨x, rfl, xc⟩ := HC.out i hil
      have xc := (HB.out.cell (p := x.add i) (by have := block_lt_of_cell xc; exact this)).trans xc
      have he := lL l[i] nm
      have hf := Af l i hil nm.data.toList
      obtain ⟨S, hS⟩ : ∃ S : ByteArray, (⟨l[i].toArray⟩ : ByteArray) = S := ⟨_, rfl⟩
      have HS := Lib.hid hS
      rw [hS] at he xc
      have hml : m.length ≤ i := by
        rw [HM.out]
        refine Nat.le_trans (List.length_filter_le _ _) ?_
        rw [List.length_take]; omega
      by_cases hx : l[i] = nm.data.toList
      · rw [decide_eq_true hx] at he
        rw [if_pos hx, List.append_nil] at hf
        have HM2 := Lib.hid (HM.out.trans hf.symm)
        have he2 : (S.toList != nm.toList) = false := by rw [bne, he]; rfl
        clear hx hS hf
        go_wp2
        go_roundw
        case rel => exact ⟨i + 1, m, by go_num, by omega, HB.out, HM2, HO.out⟩
        case measure => simp [ae]; omega
      · rw [decide_eq_false hx] at he
        rw [if_neg hx] at hf
        have HM2 := Lib.hid (show m ++ [l[i]] = (l.take (i + 1)).filter (fun x => decide (x ≠ nm.data.toList)) by rw [hf, HM.out])
        have he2 : (S.toList != nm.toList) = true := by rw [bne, he]; rfl
        clear hx hS hf
        go_wp2_with (at_builtin; refine wpList_append_own_at _ rfl _ _ 92 rfl w.heap.size 9 i0 _ 1 16 Tryz.underlying92 hi0 hz0 hz1 hz2 rfl (by decide) _ m.length (bA m) rfl (HO.out.alloc _) ⟨wr.heap.size, 0, none⟩ 1 1 (bA [l[i]]) rfl rfl ?c1 (vP _) ?c3 ?c4 ?c5 ?_)
        case c1 =>
          intro j u hj
          have : j = 0 := by
            have := (List.getElem?_eq_some_iff.1 hj).1
            rw [bU] at this; simp at this; exact this
          subst this
          rw [oW _ 0 (by simp)] at hj
          rw [show ((⟨wr.heap.size, 0, none⟩ : Addr).add 0) = ⟨wr.heap.size, 0, none⟩ from rfl, Lib.cell_of_heap (heap_alloc_new wr _)]
          simp only [List.getElem_cons_zero] at hj
          rw [HS.out] at hj
          simpa using hj
        case c3 => first | (unfold maxLen; omega) | (simp [maxLen]; omega) | omega
        case c4 => first | omega | (simp; omega)
        case c5 => first | omega | (simp; omega)
        intro v6 w6 hown1 hgr1 _ hat1
        have HO6 := Lib.hid (show w6.ownsRow w.heap.size 9 1 v6 (m ++ [l[i]]).length (bA (m ++ [l[i]])) by
          rw [List.length_append, ← jZ]; exact hown1)
        have HB6 := Lib.hid ((HB.out.alloc hbs (.cells #[.string S] 9)).grown hgr1 (by simp; omega) (fun k hk => (HO.out.lt k hk).1))
        clear hown1 hgr1 hat1
        go_wp2
        go_roundw
        case rel => exact ⟨i + 1, m ++ [l[i]], by go_num, by omega, HB6.out, HM2, HO6.out⟩
        case measure => simp [ae]; omega
    · obtain rfl : i = n := by omega
      have e : l.take i = l := List.take_of_length_le (by have := HN.out; omega)
      rw [e] at HM
      have e2 := HM.out.trans HLf.out
      subst e2
      go_wp2
      go_ret
      exact ⟨_, rfl, HO.out, HB.out⟩
theorem lM (w0 w:World) (g:Nat) (f:aC) (R:Own) (hR:bC R) (h:ax w0 w (bI (rc g f) R)) (nm:ByteArray) (hs:f.size≤1073741000):Calls Tryz.prog 76 #[.pointer (some ⟨g,0,none⟩),.string nm] w fun e w'=>e= .returned (.tuple #[])∧ax w0 w' (bI (rc g (bN nm.data.toList f)) R):=by
 have H:=Lib.hid h
 have hb:=lL Ju nm
 rw [show (⟨Ju.toArray⟩:ByteArray).toList=[98,114] from by rw [ByteArray.toList_eq];rfl] at hb
 have hb2:(nm.toList==[98,114])=decide (Ju=nm.data.toList):=by rw [←hb];exact Bool.eq_iff_iff.2 (by simp only [beq_iff_eq];exact eq_comm)
 have hs1:=jW f
 have hbr:(pt nm.data.toList f).size≤f.size+1:=by unfold pt;split<;>omega
 have C1:=fun w' h=>Lib.hid (nG w0 w' g f R hR h ⟨2,[],false,0⟩ (by simp;omega) ⟨by decide,by decide⟩)
 have hlr:=pY nm.data.toList
 have C2:=fun w' h=>Lib.hid (nG w0 w' g (pt nm.data.toList f) R hR h ⟨1,[],false,il nm.data.toList⟩ (by simp;omega) ⟨by simp only;omega,by simp only;omega⟩)
 rw [show Fw f ⟨2,[],false,0⟩=jU f from rfl] at C1
 rw [show Fw (pt nm.data.toList f) ⟨1,[],false,il nm.data.toList⟩=nC (il nm.data.toList) (pt nm.data.toList f) from rfl] at C2
 unfold Ot at C1 C2
 simp only at C1 C2
 have CL:=fun w=>Lib.hid (s6 nm w)
 have hlf:bN nm.data.toList f=if 0<il nm.data.toList then nC (il nm.data.toList) (pt nm.data.toList f) else pt nm.data.toList f:=rfl
 obtain ⟨G,hG⟩:∃G,bN nm.data.toList f=G:=⟨_,rfl⟩
 obtain ⟨B,hB⟩:∃B,pt nm.data.toList f=B:=⟨_,rfl⟩
 obtain ⟨N,hN⟩:∃N,il nm.data.toList=N:=⟨_,rfl⟩
 have hbe:B=if nm.data.toList=Ju then jU f else f:=by rw [←hB];rfl
 rw [hG,hN,hB] at hlf
 rw [hN,hB] at C2
 rw [hN] at CL hlr
 rw [hG]
 clear hG hB hN h hs hs1 hbr hb
 by_cases hx:nm.data.toList=Ju
 ·rw [decide_eq_true hx.symm] at hb2
  rw [if_pos hx] at hbe
  rw [←hbe] at C1
  clear hx hbe
  by_cases hn:0<N
  ·rw [if_pos hn] at hlf
   rw [←hlf] at C2
   have hn2:decide (0<N)=true:=decide_eq_true hn
   clear hlf
   go_enter Tryz.func76,Tryz.ntmps76
   go_wp2_with (fail)
   refine (C1 _ H.out).out.mono ?_
   rintro e w1 ⟨rfl,m1⟩
   have M1:=Lib.hid m1
   clear m1
   go_wp2_with (fail)
   refine (CL _).out.mono ?_
   rintro e w2 ⟨rfl,rfl⟩
   go_wp2_with (fail)
   refine (C2 _ M1.out).out.mono ?_
   rintro e w3 ⟨rfl,m3⟩
   go_wp2
   refine bodyPost_end (results_none rfl _ _ _) rfl ?_
   exact ⟨rfl,m3⟩
  ·rw [if_neg hn] at hlf
   have hn2:decide (0<N)=false:=decide_eq_false hn
   subst hlf
   go_enter Tryz.func76,Tryz.ntmps76
   go_wp2_with (fail)
   refine (C1 _ H.out).out.mono ?_
   rintro e w1 ⟨rfl,m1⟩
   have M1:=Lib.hid m1
   clear m1
   go_wp2_with (fail)
   refine (CL _).out.mono ?_
   rintro e w2 ⟨rfl,rfl⟩
   go_wp2
   refine bodyPost_end (results_none rfl _ _ _) rfl ?_
   exact ⟨rfl,M1.out⟩
 ·rw [decide_eq_false (fun e=>hx e.symm)] at hb2
  rw [if_neg hx] at hbe
  subst hbe
  clear hx C1
  by_cases hn:0<N
  ·rw [if_pos hn] at hlf
   rw [←hlf] at C2
   have hn2:decide (0<N)=true:=decide_eq_true hn
   clear hlf
   go_enter Tryz.func76,Tryz.ntmps76
   go_wp2_with (fail)
   refine (CL _).out.mono ?_
   rintro e w2 ⟨rfl,rfl⟩
   go_wp2_with (fail)
   refine (C2 _ H.out).out.mono ?_
   rintro e w3 ⟨rfl,m3⟩
   go_wp2
   refine bodyPost_end (results_none rfl _ _ _) rfl ?_
   exact ⟨rfl,m3⟩
  ·rw [if_neg hn] at hlf
   have hn2:decide (0<N)=false:=decide_eq_false hn
   subst hlf
   go_enter Tryz.func76,Tryz.ntmps76
   go_wp2_with (fail)
   refine (CL _).out.mono ?_
   rintro e w2 ⟨rfl,rfl⟩
   go_wp2
   refine bodyPost_end (results_none rfl _ _ _) rfl ?_
   exact ⟨rfl,H.out⟩
end Go.Proofs.YtajpoodpbbbkfaaGreatDoor
namespace Go.Proofs.YtajpoodpbbbkfaaGreatDoor
open Go.RowKit Go.Lib
def fS (w:World) (a:Option Addr) (len cap:Nat) (L:List aq):Prop:=
 L.length=len∧len≤cap∧cap≤maxLen∧∀i (h:i<L.length),∃x ad ln cp,a=some x∧eC w x i ⟨L[i],ad,ln,cp⟩
theorem gr.bare {w:World} {a:Option Addr} {len cap:Nat} {L:List aq} (h:gr w a len cap L):fS w a len cap L:=
 ⟨h.1,h.2.1,h.2.2.1,fun i hi=>by
  obtain ⟨x,ad,ln,cp,h1,h2,-⟩:=h.2.2.2 i hi
  exact ⟨x,ad,ln,cp,h1,h2⟩⟩
theorem fS.below {w w':World} {B:Nat} {a:Option Addr} {len cap:Nat} {L:List aq} (h:fS w a len cap L) (hb:Below B w w') (hB:w.heap.size≤B):fS w' a len cap L:=
 ⟨h.1,h.2.1,h.2.2.1,fun i hi=>by
  obtain ⟨x,ad,ln,cp,h1,h2⟩:=h.2.2.2 i hi
  exact ⟨x,ad,ln,cp,h1,h2.below hb hB⟩⟩
end Go.Proofs.YtajpoodpbbbkfaaGreatDoor
namespace Go.Proofs.YtajpoodpbbbkfaaGreatDoor
open Go.RowKit Go.Lib
theorem Ct (nm:ab) (f:aC):(bN nm f).size≤f.size+101:=by
 have h1:=jW f
 have hb:(pt nm f).size≤f.size+1:=by unfold pt;split<;>omega
 have h2:=zW (il nm) (pt nm f)
 unfold bN
 split<;>omega
theorem Cu (l:List ab) (nm:ab):(l.filter (fun x=>decide (x≠nm))).length≤l.length:=List.length_filter_le _ _
theorem JC {w:World} {base:Nat} {a:Option Addr} {n cap m:Nat} {xs:List Value} (h:w.ownsRow base 9 1 (.slice a n cap) m xs) (hn:0<m):∃g,a=some ⟨g,0,none⟩:=by
 rcases h.2 with ⟨-,h0⟩|⟨g,cap',cur,hv,-⟩
 ·omega
 ·simp only [Value.slice.injEq] at hv
  exact ⟨g,hv.1⟩
theorem cx {a b i:Nat} (h:a≤i*65700) (h2:b≤a+65700):b≤(i+1)*65700:=by omega
theorem tf:pX qN=false∧k5 qN=false:=by decide+kernel
theorem rd (a : Option Addr) (len cap : Nat) (T : List aq) (w : World) (hT : fS w a len cap T) (hlen : len ≤ 4096) (htx : ∀ t ∈ T, t.text.length ≤ 65536) :
    Calls Tryz.prog 37 #[.slice a len cap] w fun e w' => e = .returned (.string ⟨(p7 T).toArray⟩) ∧ Below w.heap.size w w' := by
  have hll := hT.1
  have hlc := hT.2.1
  have hm := hT.2.2.1
  unfold maxLen at hm
  have HT := Lib.hid hT
  have HX := Lib.hid htx
  obtain ⟨Z, hZ⟩ : ∃ Z, (⟨(p7 T).toArray⟩ : ByteArray) = Z := ⟨_, rfl⟩
  rw [hZ]
  have HZ := Lib.hid hZ
  obtain ⟨g, hg⟩ : ∃ g, w.heap.size = g := ⟨_, rfl⟩
  have M0 := Lib.hid (z8 (FE (ax.nothing w) bC.emp) ((jY _ _).sep bC.emp))
  rw [hg] at M0
  clear hT htx hZ
  go_enter Tryz.func37, Tryz.ntmps37
  go_wp2
  go_loopw [4, 5, 6] (fun v4 v5 v6 wr => ∃ (i : Nat) (r : eN), v6 = .int .i64 (i : Int) ∧ v5 = .int .i64 (r.kept : Int) ∧ i ≤ len ∧ r.opn.length ≤ i ∧ r.kept ≤ i ∧ r.flow.size ≤ i * 65700 ∧ Hid (ax w wr (bI (gx v4 r.opn) (bI (rc g r.flow) D3))) ∧ Hid (renR r (T.drop i) = renR lK T)) (fun _ _ v _ => len - (ae v).toNat)
  case atStart => exact ⟨0, lK, rfl, rfl, Nat.zero_le _, Nat.le_refl _, Nat.le_refl _, Nat.le_refl _, M0, Lib.hid (by rw [List.drop_zero])⟩
  case round =>
    obtain ⟨i, r, rfl, rfl, hi, hol, hkl, hfs, HM, HR⟩ := hrel
    obtain ⟨l, kept, f⟩ := r
    simp only at hol hkl hfs HM ⊢
    clear M0
    have hHL : bC (bI (gx u4 l) (bI (rc g f) D3)) := (aS u4 l).sep ((jY g f).sep bC.emp)
    by_cases hlt : i < len
    · have hiT : i < T.length := by omega
      obtain ⟨x, ad, ln, cp, rfl, xc⟩ := HT.out.2.2.2 i hiT
      obtain ⟨x0, x1, x2, x3, x4⟩ := (xc.below HM.out.bel (Nat.le_refl _)).asked
      simp only at x0 x1 x2 x3 x4
      have hRS : renR (dz ⟨l, kept, f⟩ T[i]) (T.drop (i + 1)) = renR lK T := by
        rw [← HR.out, ← List.getElem_cons_drop hiT]; rfl
      have hts := HX.out T[i] (List.getElem_mem hiT)
      obtain ⟨t, ht⟩ : ∃ t, T[i] = t := ⟨_, rfl⟩
      rw [ht] at x0 x1 x2 x4 hRS hts
      have HRS := Lib.hid hRS
      obtain ⟨nm, hnm⟩ : ∃ nm : ByteArray, (⟨t.name.toArray⟩ : ByteArray) = nm := ⟨_, rfl⟩
      have hnm2 : nm.data.toList = t.name := by rw [← hnm, List.toList_toArray]
      obtain ⟨X, hX⟩ : ∃ X : ByteArray, (⟨t.text.toArray⟩ : ByteArray) = X := ⟨_, rfl⟩
      obtain ⟨K, hK⟩ : ∃ K, t.kind = K := ⟨_, rfl⟩
      obtain ⟨sf, hsf⟩ : ∃ b, t.self = b := ⟨_, rfl⟩
      rw [hnm] at x1
      rw [hX] at x2
      rw [hK] at x0
      rw [hsf] at x4
      have HNM := Lib.hid hnm
      have HNM2 := Lib.hid hnm2
      have HXX := Lib.hid hX
      have HK := Lib.hid hK
      have CK := fun w => Lib.hid (sZ nm w)
      have CH := fun w => Lib.hid (sV nm w)
      rw [hnm2] at CK CH
      obtain ⟨b, hb⟩ : ∃ b, wr.heap.size = b := ⟨_, rfl⟩
      obtain ⟨o, ho⟩ : ∃ o, Obj.cells #[.int .i64 K, .string nm, .string X, .slice ad ln cp, .bool sf] 33 (0, 0) = o := ⟨_, rfl⟩
      obtain ⟨w5, hw5⟩ : ∃ w5, wr.alloc o = w5 := ⟨_, rfl⟩
      have M5 := Lib.hid (show ax w w5 (bI (cF b o) (bI (gx u4 l) (bI (rc g f) D3))) by rw [← hw5, ← hb]; exact gw HM.out hHL o)
      have HY := Lib.hid (show ∀ (u : World) (R : Own), ax w u (bI (cF b o) R) → u.cell? ⟨b, 0, none⟩ = some (.int .i64 K) ∧ u.cell? ⟨b, 1, none⟩ = some (.string nm) ∧ u.cell? ⟨b, 2, none⟩ = some (.string X) from fun u R h => by
        have h1 := dX h
        rw [← ho] at h1
        refine ⟨?_, ?_, ?_⟩ <;> (rw [cell_of_row _ _ _ _ _ _ h1]; rfl))
      have hw5' : wr.alloc (.cells #[.int .i64 K, .string nm, .string X, .slice ad ln cp, .bool sf] 33) = w5 := by rw [ho]; exact hw5
      have HW5 := Lib.hid hw5'
      have HB := Lib.hid hb
      clear ht hnm hnm2 hX hK hsf hw5 hw5' xc hRS ho
      obtain ⟨a4, cap4, hv4, hlc4, hm4, -⟩ := fP HM.out
      subst hv4
      obtain ⟨kb, hkb⟩ : ∃ kb, k5 t.name = kb := ⟨_, rfl⟩
      obtain ⟨hh, hhh⟩ : ∃ hh, pX t.name = hh := ⟨_, rfl⟩
      rw [hkb] at CK
      rw [hhh] at CH
      have HKB := Lib.hid hkb
      have HHH := Lib.hid hhh
      have hbq : (nm.toList == [98, 111, 100, 121]) = decide (t.name = qN) := by
        rw [ByteArray.toList_eq, HNM2.out]
        exact Bool.eq_iff_iff.2 (by rw [beq_iff_eq, decide_eq_true_iff]; exact Iff.rfl)
      have hls := Ct t.name f
      have hLS : bC (bI (cF b o) (bI (gx (.slice a4 l.length cap4) l) D3)) := (aI b o).sep ((aS _ l).sep bC.emp)
      have hLC : bC (bI (cF b o) (bI (rc g f) D3)) := (aI b o).sep ((jY g f).sep bC.emp)
      have CL := fun w' h => Lib.hid (lM w w' g f (bI (cF b o) (bI (gx (.slice a4 l.length cap4) l) D3)) hLS h nm (by omega))
      rw [HNM2.out] at CL
      have CW := fun w' h => Lib.hid (p8 a4 l.length cap4 l ⟨#[104, 101, 97, 100]⟩ w' h (by omega))
      rw [show (⟨#[104, 101, 97, 100]⟩ : ByteArray).data.toList = bH from rfl] at CW
      have CA := fun w' h => Lib.hid (uE a4 l.length cap4 l nm w' h)
      rw [HNM2.out] at CA
      obtain ⟨n, hn⟩ : ∃ n, l.length = n := ⟨_, rfl⟩
      have HNL := Lib.hid hn
      simp only [hn] at M5 CL CW CA hlc4 hol hLS HM hHL
      rw [hn]
      clear hkb hhh hn
      go_wp2_with (fail)
      rw [HW5.out]
      refine (CK _).out.mono ?_
      rintro e w6 ⟨rfl, hw6⟩
      obtain rfl := hw6.symm
      obtain ⟨y0, y1, y2⟩ := HY.out _ _ M5.out
      clear x0 x1 x2 x3 x4 CK
      by_cases hk1 : K = 1
      · subst hk1
        have HKT := HK
        by_cases hbody : t.name = qN
        ·
          rw [decide_eq_true hbody] at hbq
          have hh0 : hh = false := by rw [← HHH.out, hbody]; exact tf.1
          have kb0 : kb = false := by rw [← HKB.out, hbody]; exact tf.2
          subst hh0
          subst kb0
          obtain ⟨lf, hlf⟩ : ∃ lf, l.filter (fun x => decide (x ≠ bH)) = lf := ⟨_, rfl⟩
          have hlfl : lf.length ≤ n := by rw [← hlf, ← HNL.out]; exact Cu _ _
          have HOP := Lib.hid (show g9 ⟨l, kept, f⟩ t.name = lf by unfold g9; rw [if_pos hbody]; exact hlf)
          rw [hlf] at CW
          clear hbody hlf CL CA
          go_wp2_with (fail)
          refine (CW _ (fP M5.out.turn)).out.mono ?_
          rintro e w6 ⟨v6, rfl, ho6, b6⟩
          have M6 := Lib.hid (Aa M5.out.turn.rest hLC b6 ho6).turn
          clear ho6 b6
          obtain ⟨a6, cap6, hv6, -, -, -⟩ := fP M6.out.turn
          subst hv6
          obtain ⟨y0, y1, y2⟩ := HY.out _ _ M6.out
          have hLS6 : bC (bI (cF b o) (bI (gx (.slice a6 lf.length cap6) lf) D3)) := (aI b o).sep ((aS _ lf).sep bC.emp)
          have CL := fun w' h => Lib.hid (lM w w' g f (bI (cF b o) (bI (gx (.slice a6 lf.length cap6) lf) D3)) hLS6 h nm (by omega))
          rw [HNM2.out] at CL
          obtain ⟨n6, hn6⟩ : ∃ n, lf.length = n := ⟨_, rfl⟩
          have HN6 := Lib.hid hn6
          rw [hn6] at hlfl
          simp only [hn6] at M6 CL
          rw [hn6]
          clear hn6 hLS6
          go_wp2_with (fail)
          refine (CH _).out.mono ?_
          rintro e w7 ⟨rfl, hw7⟩
          obtain rfl := hw7.symm
          by_cases hl0 : n6 = 0
          · have hlf0 : lf = [] := List.eq_nil_of_length_eq_zero (by rw [HN6.out]; exact hl0)
            subst hl0
            go_wp2_with (fail)
            refine (CL _ M6.out.third).out.mono ?_
            rintro e w8 ⟨rfl, m8⟩
            have M8 := Lib.hid m8.back
            clear m8
            obtain ⟨y0, y1, y2⟩ := HY.out _ _ M8.out
            go_wp2
            go_roundw
            case rel => exact ⟨i + 1, ⟨lf, kept, bN t.name f⟩, by go_num, by first | rfl | trivial | go_num, by omega, by simp only; rw [HN6.out]; omega, by simp only; omega, cx hfs (by first | exact Nat.le_add_right _ _ | exact Nat.le_trans hls (by omega) | exact Nat.le_trans hps (by omega)), Lib.hid M8.out.rest, Lib.hid (by rw [← HRS.out]; congr 1; rw [cD _ t HKT.out, HHH.out, if_neg Bool.false_ne_true, HOP.out, if_pos hlf0, HKB.out, hlf0]; rfl)⟩
            case measure => simp [ae]; omega
          · have d6 : decide ((0 : Int) < (n6 : Int)) = true := decide_eq_true (by omega)
            have hlf0 : ¬ lf = [] := fun e => hl0 (by rw [← HN6.out, e]; rfl)
            go_wp2
            go_roundw
            case rel => exact ⟨i + 1, ⟨lf, kept, f⟩, by go_num, by first | rfl | trivial | go_num, by omega, by simp only; rw [HN6.out]; omega, by simp only; omega, cx hfs (by first | exact Nat.le_add_right _ _ | exact Nat.le_trans hls (by omega) | exact Nat.le_trans hps (by omega)), Lib.hid M6.out.rest, Lib.hid (by rw [← HRS.out]; congr 1; rw [cD _ t HKT.out, HHH.out, if_neg Bool.false_ne_true, HOP.out, if_neg hlf0])⟩
            case measure => simp [ae]; omega
        · rw [decide_eq_false hbody] at hbq
          have HOP := Lib.hid (show g9 ⟨l, kept, f⟩ t.name = l by unfold g9; rw [if_neg hbody])
          clear hbody CW CA
          go_wp2_with (fail)
          refine (CH _).out.mono ?_
          rintro e w7 ⟨rfl, hw7⟩
          obtain rfl := hw7.symm
          cases hh
          · by_cases hl0 : n = 0
            · have hlf0 : l = [] := List.eq_nil_of_length_eq_zero (by rw [HNL.out]; exact hl0)
              subst hl0
              go_wp2_with (fail)
              refine (CL _ M5.out.third).out.mono ?_
              rintro e w8 ⟨rfl, m8⟩
              have M8 := Lib.hid m8.back
              clear m8
              obtain ⟨y0, y1, y2⟩ := HY.out _ _ M8.out
              cases kb
              · go_wp2
                go_roundw
                case rel => exact ⟨i + 1, ⟨l, kept, bN t.name f⟩, by go_num, by first | rfl | trivial | go_num, by omega, by simp only; rw [HNL.out]; omega, by simp only; omega, cx hfs (by first | exact Nat.le_add_right _ _ | exact Nat.le_trans hls (by omega) | exact Nat.le_trans hps (by omega)), Lib.hid M8.out.rest, Lib.hid (by rw [← HRS.out]; congr 1; rw [cD _ t HKT.out, HHH.out, if_neg Bool.false_ne_true, HOP.out, if_pos hlf0, HKB.out, hlf0]; rfl)⟩
                case measure => simp [ae]; omega
              · go_wp2
                go_roundw
                case rel => exact ⟨i + 1, ⟨l, kept + 1, bN t.name f⟩, by go_num, by first | rfl | trivial | go_num, by omega, by simp only; rw [HNL.out]; omega, by simp only; omega, cx hfs (by first | exact Nat.le_add_right _ _ | exact Nat.le_trans hls (by omega) | exact Nat.le_trans hps (by omega)), Lib.hid M8.out.rest, Lib.hid (by rw [← HRS.out]; congr 1; rw [cD _ t HKT.out, HHH.out, if_neg Bool.false_ne_true, HOP.out, if_pos hlf0, HKB.out, hlf0]; rfl)⟩
                case measure => simp [ae]; omega
            · have d6 : decide ((0 : Int) < (n : Int)) = true := decide_eq_true (by omega)
              have hlf0 : ¬ l = [] := fun e => hl0 (by rw [← HNL.out, e]; rfl)
              go_wp2
              go_roundw
              case rel => exact ⟨i + 1, ⟨l, kept, f⟩, by go_num, by first | rfl | trivial | go_num, by omega, by simp only; rw [HNL.out]; omega, by simp only; omega, cx hfs (by first | exact Nat.le_add_right _ _ | exact Nat.le_trans hls (by omega) | exact Nat.le_trans hps (by omega)), Lib.hid M5.out.rest, Lib.hid (by rw [← HRS.out]; congr 1; rw [cD _ t HKT.out, HHH.out, if_neg Bool.false_ne_true, HOP.out, if_neg hlf0])⟩
              case measure => simp [ae]; omega
          · have M6 := Lib.hid (M5.out.turn.below ((aS _ l).sep hLC) ((Below.refl w5.heap.size w5).alloc (Nat.le_refl _) (.cells #[.string nm] 9)))
            go_wp2_with (at_builtin; refine fk rfl _ _ rfl (.slice a4 n cap4) l [t.name] _ hLC rfl M6.out ⟨w5.heap.size, 0, none⟩ 1 1 rfl rfl ?c1 ?c2 ?_)
            case c1 =>
              intro j hj
              have : j = 0 := by simpa using hj
              subst this
              rw [show ((⟨w5.heap.size, 0, none⟩ : Addr).add 0) = ⟨w5.heap.size, 0, none⟩ from rfl, Lib.cell_of_heap (heap_alloc_new w5 _)]
              simp only [List.getElem_cons_zero]
              rw [HNM.out]; rfl
            case c2 => rw [HNL.out]; simp; omega
            intro v8 w8 m8
            have M8 := Lib.hid m8.turn.rest
            clear m8
            go_wp2
            go_roundw
            case rel => exact ⟨i + 1, ⟨l ++ [t.name], kept, f⟩, by go_num, by first | rfl | trivial | go_num, by omega, by simp only; rw [List.length_append, HNL.out]; simp; omega, by simp only; omega, cx hfs (by first | exact Nat.le_add_right _ _ | exact Nat.le_trans hls (by omega) | exact Nat.le_trans hps (by omega)), M8, Lib.hid (by rw [← HRS.out]; congr 1; rw [cD _ t HKT.out, HHH.out, if_pos rfl, HOP.out])⟩
            case measure => simp [ae]; omega
      · have bk1 : (K == 1) = false := beq_eq_false_iff_ne.2 hk1
        clear CW CH hbq
        by_cases hk2 : K = 2
        · subst hk2
          have HKT := HK
          clear hk1 bk1
          go_wp2_with (fail)
          refine (CA _ (fP M5.out.turn)).out.mono ?_
          rintro e w7 ⟨rfl, hw7⟩
          obtain rfl := hw7.symm
          unfold Ad
          cases hla : dn l t.name with
          | some k =>
            obtain ⟨hkn, -⟩ := mF _ _ _ hla
            rw [HNL.out] at hkn
            have ho := z9 M5.out.turn
            rw [HNL.out] at ho
            obtain ⟨g4, rfl⟩ := JC ho (by omega)
            have HLA := Lib.hid hla
            have M6 := Lib.hid (Cr M5.out ((aI b o).sep ((aS _ l).sep ((jY g f).sep bC.emp))))
            have HSI := Lib.hid (fP (M5.out.turn.below ((aS _ l).sep hLC) ((Below.refl w5.heap.size w5).alloc (Nat.le_refl _) (.cells #[] 9))))
            have i1 : (k : Int) ≤ (n : Int) := by omega
            have i2 : (k : Int) ≤ (cap4 : Int) := by omega
            clear hla ho CA CL
            simp only
            go_wp2_with (at_builtin; refine fk rfl _ _ rfl _ [] (l.take k) _ ((aI b o).sep ((aS _ l).sep ((jY g f).sep bC.emp))) rfl M6.out ⟨g4, 0, none⟩ cap4 k rfl (by rw [List.length_take, HNL.out]; omega) ?c1 ?c2 ?_)
            case c1 =>
              intro j hj
              obtain ⟨a9, cap9, hv9, -, -, hc9⟩ := HSI.out
              simp only [Value.slice.injEq] at hv9
              have hj2 : j < l.length := by
                have : (l.take k).length ≤ l.length := by rw [List.length_take]; omega
                simp at hj this; omega
              obtain ⟨x9, hx9, h9⟩ := hc9 j hj2
              rw [← hv9.1] at hx9
              obtain rfl := Option.some.inj hx9
              rw [show (⟨g4, 0, none⟩ : Addr).add j = ⟨g4, j, none⟩ by unfold Addr.add; split <;> simp_all] at h9
              first | exact h9 | (rw [List.getElem_take]; exact h9)
            case c2 =>
              have := HNL.out
              first | omega | (simp; omega)
            intro v8 w8 m8
            have M8 := Lib.hid m8.turn.rest.turn.rest
            clear m8
            go_wp2
            go_roundw
            case rel => exact ⟨i + 1, ⟨l.take k, kept, f⟩, by go_num, by first | rfl | trivial | go_num, by omega, by simp only; rw [List.length_take]; omega, by simp only; omega, cx hfs (by first | exact Nat.le_add_right _ _ | exact Nat.le_trans hls (by omega) | exact Nat.le_trans hps (by omega)), M8, Lib.hid (by rw [← HRS.out]; congr 1; rw [fR _ t HKT.out, HLA.out])⟩
            case measure => simp [ae]; omega
          | none =>
            have HLA := Lib.hid hla
            clear hla
            simp only
            by_cases hl0 : n = 0
            · have hlf0 : l = [] := List.eq_nil_of_length_eq_zero (by rw [HNL.out]; exact hl0)
              subst hl0
              go_wp2_with (fail)
              refine (CL _ M5.out.third).out.mono ?_
              rintro e w8 ⟨rfl, m8⟩
              have M8 := Lib.hid m8.back
              clear m8
              obtain ⟨y0, y1, y2⟩ := HY.out _ _ M8.out
              cases kb
              · go_wp2
                go_roundw
                case rel => exact ⟨i + 1, ⟨l, kept, bN t.name f⟩, by go_num, by first | rfl | trivial | go_num, by omega, by simp only; rw [HNL.out]; omega, by simp only; omega, cx hfs (by first | exact Nat.le_add_right _ _ | exact Nat.le_trans hls (by omega) | exact Nat.le_trans hps (by omega)), Lib.hid M8.out.rest, Lib.hid (by rw [← HRS.out]; congr 1; rw [fR _ t HKT.out, HLA.out]; show _ = if l = [] then _ else _; rw [if_pos hlf0, HKB.out, hlf0]; rfl)⟩
                case measure => simp [ae]; omega
              · by_cases hk0 : kept = 0
                · subst hk0
                  go_wp2
                  go_roundw
                  case rel => exact ⟨i + 1, ⟨l, 0, bN t.name f⟩, by go_num, by first | rfl | trivial | go_num, by omega, by simp only; rw [HNL.out]; omega, by simp only; omega, cx hfs (by first | exact Nat.le_add_right _ _ | exact Nat.le_trans hls (by omega) | exact Nat.le_trans hps (by omega)), Lib.hid M8.out.rest, Lib.hid (by rw [← HRS.out]; congr 1; rw [fR _ t HKT.out, HLA.out]; show _ = if l = [] then _ else _; rw [if_pos hlf0, HKB.out, hlf0]; rfl)⟩
                  case measure => simp [ae]; omega
                · obtain ⟨kk, rfl⟩ : ∃ kk, kept = kk + 1 := ⟨kept - 1, by omega⟩
                  have dk : decide ((0 : Int) < ((kk + 1 : Nat) : Int)) = true := decide_eq_true (by omega)
                  have dk2 : decide ((0 : Int) < (kk : Int) + 1) = true := decide_eq_true (by omega)
                  go_wp2
                  go_roundw
                  case rel => exact ⟨i + 1, ⟨l, kk, bN t.name f⟩, by go_num, by first | rfl | trivial | go_num, by omega, by simp only; rw [HNL.out]; omega, by simp only; omega, cx hfs (by first | exact Nat.le_add_right _ _ | exact Nat.le_trans hls (by omega) | exact Nat.le_trans hps (by omega)), Lib.hid M8.out.rest, Lib.hid (by rw [← HRS.out]; congr 1; rw [fR _ t HKT.out, HLA.out]; show _ = if l = [] then _ else _; rw [if_pos hlf0, HKB.out, hlf0]; rfl)⟩
                  case measure => simp [ae]; omega
            · have d6 : decide ((0 : Int) < (n : Int)) = true := decide_eq_true (by omega)
              have hlf0 : ¬ l = [] := fun e => hl0 (by rw [← HNL.out, e]; rfl)
              go_wp2
              go_roundw
              case rel => exact ⟨i + 1, ⟨l, kept, f⟩, by go_num, by first | rfl | trivial | go_num, by omega, by simp only; rw [HNL.out]; omega, by simp only; omega, cx hfs (by first | exact Nat.le_add_right _ _ | exact Nat.le_trans hls (by omega) | exact Nat.le_trans hps (by omega)), Lib.hid M5.out.rest, Lib.hid (by rw [← HRS.out]; congr 1; rw [fR _ t HKT.out, HLA.out]; show _ = if l = [] then _ else _; rw [if_neg hlf0])⟩
              case measure => simp [ae]; omega
        · have bk2 : (K == 2) = false := beq_eq_false_iff_ne.2 hk2
          clear CA CL
          by_cases hk0 : K = 0
          · subst hk0
            have HKT := HK
            clear hk1 hk2 bk1 bk2
            by_cases hl0 : n = 0
            · have hlf0 : l = [] := List.eq_nil_of_length_eq_zero (by rw [HNL.out]; exact hl0)
              subst hl0
              have CD := fun (kp : Bool) w' h => Lib.hid (nG w w' g f (bI (cF b o) (bI (gx (.slice a4 0 cap4) l) D3)) hLS h ⟨0, t.text, kp, 0⟩ (by simp; omega) ⟨by simp, by simp⟩)
              simp only [show ∀ kp, Fw f ⟨0, t.text, kp, 0⟩ = cP kp f t.text from fun _ => rfl] at CD
              unfold Ot at CD
              simp only [HXX.out] at CD
              have hps := gv (decide (0 < kept)) t.text f
              have hdk : decide ((0 : Int) < (kept : Int)) = decide (0 < kept) := Bool.eq_iff_iff.2 (by simp)
              have CD := CD (decide (0 < kept))
              obtain ⟨kd, hkd⟩ : ∃ kd, decide (0 < kept) = kd := ⟨_, rfl⟩
              have HKD := Lib.hid hkd
              rw [hkd] at CD hps hdk
              go_wp2_with (fail)
              refine (CD _ M5.out.third).out.mono ?_
              rintro e w8 ⟨rfl, m8⟩
              have M8 := Lib.hid m8.back
              clear m8
              go_wp2
              go_roundw
              case rel => exact ⟨i + 1, ⟨l, kept, cP kd f t.text⟩, by go_num, by first | rfl | trivial | go_num, by omega, by simp only; rw [HNL.out]; omega, by simp only; omega, cx hfs (by first | exact Nat.le_add_right _ _ | exact Nat.le_trans hls (by omega) | exact Nat.le_trans hps (by omega)), Lib.hid M8.out.rest, Lib.hid (by rw [← HRS.out]; congr 1; rw [dE _ t HKT.out]; show _ = if l = [] then _ else _; rw [if_pos hlf0]; simp only; rw [HKD.out, hlf0])⟩
              case measure => simp [ae]; omega
            · have hlf0 : ¬ l = [] := fun e => hl0 (by rw [← HNL.out, e]; rfl)
              have d6 : ((n : Int) == 0) = false := beq_eq_false_iff_ne.2 (by omega)
              go_wp2
              go_roundw
              case rel => exact ⟨i + 1, ⟨l, kept, f⟩, by go_num, by first | rfl | trivial | go_num, by omega, by simp only; rw [HNL.out]; omega, by simp only; omega, cx hfs (by first | exact Nat.le_add_right _ _ | exact Nat.le_trans hls (by omega) | exact Nat.le_trans hps (by omega)), Lib.hid M5.out.rest, Lib.hid (by rw [← HRS.out]; congr 1; rw [dE _ t HKT.out]; show _ = if l = [] then _ else _; rw [if_neg hlf0])⟩
              case measure => simp [ae]; omega
          · have bk0 : (K == 0) = false := beq_eq_false_iff_ne.2 hk0
            have HKO := Lib.hid (show dz ⟨l, kept, f⟩ t = ⟨l, kept, f⟩ from nI _ t (by rw [HK.out]; exact hk0) (by rw [HK.out]; exact hk1) (by rw [HK.out]; exact hk2))
            clear hk0 hk1 hk2
            go_wp2
            go_roundw
            case rel => exact ⟨i + 1, ⟨l, kept, f⟩, by go_num, by first | rfl | trivial | go_num, by omega, by simp only; rw [HNL.out]; omega, by simp only; omega, cx hfs (by first | exact Nat.le_add_right _ _ | exact Nat.le_trans hls (by omega) | exact Nat.le_trans hps (by omega)), Lib.hid M5.out.rest, Lib.hid (by rw [← HRS.out]; congr 1; exact HKO.out.symm)⟩
            case measure => simp [ae]; omega
    · obtain rfl : i = len := by omega
      have y0 := FG HM.out.turn
      have HE := Lib.hid (show (⟨f.told.toArray⟩ : ByteArray) = Z by
        rw [← HZ.out]
        have := HR.out
        rw [List.drop_eq_nil_of_le (by omega)] at this
        unfold p7
        rw [← this]; rfl)
      rw [HE.out] at y0
      go_wp2
      go_ret
      exact ⟨rfl, HM.out.bel⟩
end Go.Proofs.YtajpoodpbbbkfaaGreatDoor
