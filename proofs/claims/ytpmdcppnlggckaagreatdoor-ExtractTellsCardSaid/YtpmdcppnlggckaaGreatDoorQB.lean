/-
  Texts laid together: Toks, TkAll, TkMath, TkLaws, TkFew, TkHeads.
-/
import Derived.Test.YtpmdcppnlggckaaGreatDoorPT
import Derived.Maps.AppendAt
import Derived.Below
import Derived.Deep.RegionHeld3
import Derived.Test.YtpmdcppnlggckaaGreatDoorQA
import Derived.KernelRfl
namespace Go.Proofs.YtpmdcppnlggckaaGreatDoor
open Go.RowKit Go.Lib
structure aV where
 t:am
 ad:Option Addr
 len:Nat
 cap:Nat
def aV.five (q:aV):List Value:=[.int .i64 q.t.kind,.string ⟨q.t.name.toArray⟩,.string ⟨q.t.text.toArray⟩,.slice q.ad q.len q.cap,.bool q.t.self]
def af (Q:List aV):List Value:=Q.flatMap aV.five
theorem oM (q:aV) (Q:List aV):af (q::Q)= .int .i64 q.t.kind:: .string ⟨q.t.name.toArray⟩:: .string ⟨q.t.text.toArray⟩:: .slice q.ad q.len q.cap:: .bool q.t.self::af Q:=rfl
theorem gU (Q R:List aV):af Q++af R=af (Q++R):=by simp [af]
theorem bo (q:aV):af [q]=q.five:=by simp [af]
theorem bJ (Q:List aV):(af Q).length=Q.length*5:=by
 induction Q with
 |nil=>rfl
 |cons q Q ih=>rw [oM];simp only [List.length_cons,ih];omega
theorem gD:∀(Q:List aV) (i:Nat) (h:i<Q.length),(af Q)[i*5]? =some (.int .i64 Q[i].t.kind)∧(af Q)[i*5+1]? =some (.string ⟨Q[i].t.name.toArray⟩)∧(af Q)[i*5+2]? =some (.string ⟨Q[i].t.text.toArray⟩)∧(af Q)[i*5+3]? =some (.slice Q[i].ad Q[i].len Q[i].cap)∧(af Q)[i*5+4]? =some (.bool Q[i].t.self)
 |q::Q,0,_=>⟨rfl,rfl,rfl,rfl,rfl⟩
 |q::Q,i+1,h=>by
  obtain ⟨a,b,c,d,e⟩:=gD Q i (by simpa using h)
  rw [oM,show (i+1)*5=i*5+1+1+1+1+1 by omega]
  simp only [List.getElem_cons_succ]
  refine ⟨?_,?_,?_,?_,?_⟩
  ·simp only [List.getElem?_cons_succ];exact a
  ·rw [show i*5+1+1+1+1+1+1=i*5+1+1+1+1+1+1 from rfl];simp only [List.getElem?_cons_succ];exact b
  ·rw [show i*5+1+1+1+1+1+2=i*5+2+1+1+1+1+1 by omega];simp only [List.getElem?_cons_succ];exact c
  ·rw [show i*5+1+1+1+1+1+3=i*5+3+1+1+1+1+1 by omega];simp only [List.getElem?_cons_succ];exact d
  ·rw [show i*5+1+1+1+1+1+4=i*5+4+1+1+1+1+1 by omega];simp only [List.getElem?_cons_succ];exact e
structure dZ (w:World) (x:Addr) (i:Nat) (q:aV):Prop where
 c0:w.cell? (x.add (i*5))=some (.int .i64 q.t.kind)
 c1:w.cell? (x.add (i*5+1))=some (.string ⟨q.t.name.toArray⟩)
 c2:w.cell? (x.add (i*5+2))=some (.string ⟨q.t.text.toArray⟩)
 c3:w.cell? (x.add (i*5+3))=some (.slice q.ad q.len q.cap)
 c4:w.cell? (x.add (i*5+4))=some (.bool q.t.self)
theorem dZ.below {w w':World} {B:Nat} {x:Addr} {i:Nat} {q:aV} (h:dZ w x i q) (hb:Below B w w') (hB:w.heap.size≤B):dZ w' x i q:=by
 have k:∀{a v},w.cell? a=some v→w'.cell? a=some v:=fun {a v} ha=>(hb.cell (by have:=block_lt_of_cell ha;omega)).trans ha
 exact ⟨k h.c0,k h.c1,k h.c2,k h.c3,k h.c4⟩
theorem mW (x:Addr) (n k:Nat):x.add (n+(k+1))=⟨(x.add n).block,(x.add n).off+(k+1),none⟩:=by
 unfold Addr.add
 by_cases h:n=0
 ·subst h;simp
 ·rw [if_neg h,if_neg (by omega)];simp;omega
theorem dZ.asked {w:World} {x:Addr} {i:Nat} {q:aV} (h:dZ w x i q):w.cell? (x.add (i*5))=some (.int .i64 q.t.kind)∧w.cell? ⟨(x.add (i*5)).block,(x.add (i*5)).off+1,none⟩=some (.string ⟨q.t.name.toArray⟩)∧w.cell? ⟨(x.add (i*5)).block,(x.add (i*5)).off+2,none⟩=some (.string ⟨q.t.text.toArray⟩)∧w.cell? ⟨(x.add (i*5)).block,(x.add (i*5)).off+3,none⟩=some (.slice q.ad q.len q.cap)∧w.cell? ⟨(x.add (i*5)).block,(x.add (i*5)).off+4,none⟩=some (.bool q.t.self):=
 ⟨h.c0,by rw [←mW x _ 0];exact h.c1,by rw [←mW x _ 1];exact h.c2,by rw [←mW x _ 2];exact h.c3,by rw [←mW x _ 3];exact h.c4⟩
def fF (w:World) (a:Option Addr) (len cap:Nat) (L:List am):Prop:=
 L.length=len∧len≤cap∧cap≤maxLen∧∀i (h:i<L.length),∃x ad ln cp,a=some x∧dZ w x i ⟨L[i],ad,ln,cp⟩∧bU w ad ln cp L[i].attrs
theorem fF.below {w w':World} {B:Nat} {a:Option Addr} {len cap:Nat} {L:List am} (h:fF w a len cap L) (hb:Below B w w') (hB:w.heap.size≤B):fF w' a len cap L:=by
 refine ⟨h.1,h.2.1,h.2.2.1,fun i hi=>?_⟩
 obtain ⟨x,ad,ln,cp,hx,h1,h2⟩:=h.2.2.2 i hi
 exact ⟨x,ad,ln,cp,hx,h1.below hb hB,h2.below hb hB⟩
def gi (w:World) (v:Value) (q:aV):Prop:=
 bU w q.ad q.len q.cap q.t.attrs∧(q.t.attrs=[]∨∀k,(Value.slice q.ad q.len q.cap).ownBlock=some k→v.ownBlock≠some k)
def aE (w:World) (base:Nat) (v:Value) (Q:List aV):Prop:=
 w.ownsRow base 54 5 v Q.length (af Q)∧∀q∈Q,gi w v q
theorem bE (w:World) (base:Nat):aE w base (.slice none 0 0) []:=⟨World.ownsRow_nil _ _ _ _,fun q h=>by cases h⟩
theorem td {w w':World} {q:aV} {v:Value} (h:gi w v q) (hg:w.grownBy w' v.ownBlock):bU w' q.ad q.len q.cap q.t.attrs:=by
 obtain ⟨h1,h2⟩:=h
 rcases h2 with h0|h2
 ·rw [h0] at h1⊢
  exact ⟨h1.1,h1.2.1,h1.2.2.1,fun i hi=>by cases hi⟩
 refine ⟨h1.1,h1.2.1,h1.2.2.1,fun i hi=>?_⟩
 obtain ⟨x,hx,c1,c2⟩:=h1.2.2.2 i hi
 have hb:∀n,(x.add n).block=x.block:=fun n=>by unfold Addr.add;split<;>rfl
 have hne:=h2 x.block (by rw [hx];rfl)
 have hlt:x.block<w.heap.size:=by
  have:=block_lt_of_cell c1
  rwa [hb] at this
 have hc:∀n,w'.cell? (x.add n)=w.cell? (x.add n):=fun n=>World.cell?_of_block (by
  rw [hb];exact hg.block x.block hlt (fun e=>hne e.symm))
 exact ⟨x,hx,by rw [hc];exact c1,by rw [hc];exact c2⟩
theorem aE.app {w w':World} {base:Nat} {v v':Value} {Q R:List aV} (h:aE w base v Q) (hR:∀q∈R,gi w v q) (hown:w'.ownsRow base 54 5 v' (Q.length+R.length) (af Q++af R)) (hg:w.grownBy w' v.ownBlock) (hw:v'.ownBlock=v.ownBlock∨v'.ownBlock=some w.heap.size):aE w' base v' (Q++R):=by
 refine ⟨by rw [List.length_append,←gU];exact hown,fun q hq=>?_⟩
 have hq':gi w v q:=by
  rcases List.mem_append.1 hq with h1|h1
  ·exact h.2 q h1
  ·exact hR q h1
 refine ⟨td hq' hg,?_⟩
 rcases hq'.2 with h0|h0
 ·exact .inl h0
 ·by_cases he:q.t.attrs=[]
  ·exact .inl he
  ·refine .inr fun k hk=>?_
   rcases hw with h1|h1
   ·rw [h1];exact h0 k hk
   ·rw [h1]
    obtain ⟨x,hx,c1,-⟩:=hq'.1.2.2.2 0 (List.length_pos_iff.2 he)
    have hlt:=block_lt_of_cell c1
    rw [show (x.add (0*2)).block=x.block by unfold Addr.add;split<;>rfl] at hlt
    rw [hx] at hk
    have:x.block=k:=by simpa [Value.ownBlock] using hk
    intro e
    have:=Option.some.inj e
    omega
theorem aE.below {w w':World} {base:Nat} {v:Value} {Q:List aV} (h:aE w base v Q) (hb:Below w.heap.size w w'):aE w' base v Q:=
 ⟨h.1.kept (row:=none) ⟨hb.os,hb.tape,hb.output,hb.size,fun k hk _=>hb.block k hk⟩ (Classical.em _),fun q hq=>⟨(h.2 q hq).1.below hb (Nat.le_refl _),(h.2 q hq).2⟩⟩
theorem aE.alloc {w:World} {base:Nat} {v:Value} {Q:List aV} (h:aE w base v Q) (o:Obj):aE (w.alloc o) base v Q:=h.below ((Below.refl _ w).alloc (Nat.le_refl _) o)
theorem aE.lt {w:World} {base:Nat} {v:Value} {Q:List aV} (h:aE w base v Q):∀k,v.ownBlock=some k→base≤k∧k<w.heap.size:=h.1.lt
theorem aE.told {w:World} {base:Nat} {v:Value} {Q:List aV} (h:aE w base v Q):∃a cap,v= .slice a Q.length cap∧fF w a Q.length cap (Q.map aV.t):=by
 have hc:=fun g hg=>h.1.cells (g:=g) hg
 rcases h.1.2 with ⟨rfl,h0⟩|⟨g,cap,cur,rfl,hb,hg,hn,hm,hs,htake⟩
 ·refine ⟨none,0,by rw [h0],by simp,by omega,by simp [maxLen],fun i hi=>?_⟩
  rw [List.length_map] at hi;omega
 ·refine ⟨_,cap,rfl,by simp,hn,hm,fun i hi=>?_⟩
  have hi':i<Q.length:=by simpa using hi
  obtain ⟨e0,e1,e2,e3,e4⟩:=gD Q i hi'
  refine ⟨_,Q[i].ad,Q[i].len,Q[i].cap,rfl,⟨?_,?_,?_,?_,?_⟩,?_⟩
  all_goals simp only [List.getElem_map]
  ·exact hc g rfl _ _ e0
  ·exact hc g rfl _ _ e1
  ·exact hc g rfl _ _ e2
  ·exact hc g rfl _ _ e3
  ·exact hc g rfl _ _ e4
  ·exact (h.2 Q[i] (List.getElem_mem hi')).1
theorem cG {w W w1:World} {base:Nat} {v v1:Value} {Q:List aV} {q:aV} (h:aE W base v Q) (hq:gi W v q) (hb:Below w.heap.size w W) (hbase:w.heap.size≤base) (hown:w1.ownsRow base 54 5 v1 (Q.length+1) (af Q++af [q])) (hg:W.grownBy w1 v.ownBlock) (hw:v1.ownBlock=v.ownBlock∨v1.ownBlock=some W.heap.size):aE w1 base v1 (Q++[q])∧Below w.heap.size w w1:=
 ⟨h.app (R:=[q]) (fun r hr=>by
  simp only [List.mem_cons,List.not_mem_nil,or_false] at hr
  subst hr;exact hq) hown hg hw,hb.grown hg hb.size (fun k hk=>Nat.le_trans hbase (h.lt k hk).1)⟩
theorem l6 (w:World) (v:Value) (x:ab):gi w v ⟨⟨0,[],x,[],false⟩,none,0,0⟩:=⟨⟨rfl,Nat.le_refl _,by simp [maxLen],fun i hi=>by cases hi⟩,.inl rfl⟩
theorem gE {w w1:World} {base:Nat} {v:Value} {Q:List aV} {q:aV} (h:aE w base v Q) (hr:bU w1 q.ad q.len q.cap q.t.attrs) (hf:q.t.attrs=[]∨∀k,(Value.slice q.ad q.len q.cap).ownBlock=some k→w.heap.size≤k):gi w1 v q:=by
 refine ⟨hr,?_⟩
 rcases hf with h0|h0
 ·exact .inl h0
 ·refine .inr fun k hk e=>?_
  have:=(h.lt k e).2
  have:=h0 k hk
  omega
theorem gi.below {w w':World} {v:Value} {q:aV} (h:gi w v q) (hb:Below w.heap.size w w'):gi w' v q:=⟨h.1.below hb (Nat.le_refl _),h.2⟩
theorem aE.base {w:World} {base base':Nat} {v:Value} {Q:List aV} (h:aE w base v Q) (hb:base'≤base):aE w base' v Q:=by
 refine ⟨⟨h.1.1,?_⟩,h.2⟩
 rcases h.1.2 with h0|⟨g,cap,cur,h1,h2,h3⟩
 ·exact .inl h0
 ·exact .inr ⟨g,cap,cur,h1,Nat.le_trans hb h2,h3⟩
theorem fP:(Tryz.prog.info? 54).map (fun i=>(i.zero,i.size,i.bytes))=some (some (.agg #[.int .i64 0,.string ⟨#[]⟩,.string ⟨#[]⟩,.slice none 0 0,.bool false]),5,72):=by kernel_rfl
theorem qG (wr:World) (q:aV) (e:TypeId):∀(j:Nat) (u:Value),(af [q])[j]? =some u→(wr.alloc (.cells q.five.toArray e)).cell? ((⟨wr.heap.size,0,none⟩:Addr).add j)=some u:=by
 intro j u hj
 have e1:(⟨wr.heap.size,0,none⟩:Addr).add j=⟨wr.heap.size,j,none⟩:=by simp [Addr.add];omega
 rw [e1,cell_of_row _ _ _ _ _ _ (heap_alloc_new wr _),bo] at*
 simpa using hj
theorem bM (wr:World) (q:aV) (e:TypeId) (g:Nat) (hg:wr.heap.size=g):∀(j:Nat) (u:Value),(af [q])[j]? =some u→(wr.alloc (.cells q.five.toArray e)).cell? ((⟨g,0,none⟩:Addr).add j)=some u:=by
 subst hg;exact qG wr q e
theorem cT (q:aV):∀u∈af [q],u.oneCell'=true:=by
 intro u hu
 rw [bo] at hu
 simp [aV.five] at hu
 rcases hu with rfl|rfl|rfl|rfl|rfl<;>rfl
theorem la (Q:List aV):∀u∈af Q,u.oneCell'=true:=by
 intro u hu
 unfold af at hu
 obtain ⟨q,-,hq⟩:=List.mem_flatMap.1 hu
 simp [aV.five] at hq
 rcases hq with rfl|rfl|rfl|rfl|rfl<;>rfl
end Go.Proofs.YtpmdcppnlggckaaGreatDoor
namespace Go.Proofs.YtpmdcppnlggckaaGreatDoor
open Go.RowKit Go.Lib
end Go.Proofs.YtpmdcppnlggckaaGreatDoor
namespace Go.Proofs.YtpmdcppnlggckaaGreatDoor
open Go.RowKit Go.Lib
def ff (x:ab):am:=⟨0,[],x,[],false⟩
noncomputable def nx (l : ab) : am × Nat × Bool :=
  if aS l ≠ 0 then (match gQ l with | none => (aG, l.length, false) | some (t, n) => (t, n, true))
  else if fq l = true then (gZ (fb l).1, (fb l).2, true)
  else if jW l = true then (rO ((l.drop 9).takeWhile (· != 62)), (if cO (· != 62) l 9 < l.length then cO (· != 62) l 9 + 1 else l.length), true)
  else if mM l = true then (aG, 3, false)
  else if cP l = 0 then (aG, 0, false)
  else (ff (ej false (l.take (cP l))), cP l, true)
noncomputable def zr (s:ab) (a:Int):am × Int × Bool:=((nx (s.drop (ix s a))).1,((ix s a+(nx (s.drop (ix s a))).2.1:Nat):Int),(nx (s.drop (ix s a))).2.2)
def ba (says:ab):List am:=if says=[] then [] else [ff says]
def cE (says:ab):List am→List am
 |[]=>ba says
 |t::L=>if t.kind=0 then cE (says++t.text) L else ba says++t::cE [] L
def bN (L:List am):List am:=cE [] L
def aR (st:Int) (nm l:ab):Nat:=if st=1∨st=2 then eO nm l else if st=3 then (cQ 0 0 l).1 else l.length
noncomputable def eQ (st:Int) (nm l:ab):ab:=kn (decide (st=1)) (l.take (aR st nm l))
noncomputable def df (st:Int) (nm l:ab):List am × Nat:=
 if 1≤st∧st≤4 then
  (if aR st nm l=l.length then (ba (eQ st nm l),l.length) else if aS (l.drop (aR st nm l))≠0 then (match gQ (l.drop (aR st nm l)) with
   |none=>(ba (eQ st nm l),l.length)
   |some (t,n)=>(ba (eQ st nm l)++[t],aR st nm l+n)) else (ba (eQ st nm l),aR st nm l))
 else ([],0)
noncomputable def fu (st:Int) (nm s:ab) (a:Int):List am × Nat:=((df st nm (s.drop (ix s a))).1,ix s a+(df st nm (s.drop (ix s a))).2)
theorem Kq (l:ab) (h:aS l≠0):nx l=(match gQ l with|none=>(aG,l.length,false)|some (t,n)=>(t,n,true)):=by
 unfold nx;rw [if_pos h]
theorem fQ (l : ab) : (aS l ≠ 0 ∧ gQ l = none ∧ nx l = (aG, l.length, false)) ∨ (aS l ≠ 0 ∧ ∃ t n, gQ l = some (t, n) ∧ nx l = (t, n, true)) ∨
    (aS l = 0 ∧ fq l = true ∧ nx l = (gZ (fb l).1, (fb l).2, true)) ∨
    (aS l = 0 ∧ fq l = false ∧ jW l = true ∧ nx l = (rO ((l.drop 9).takeWhile (· != 62)), (if cO (· != 62) l 9 < l.length then cO (· != 62) l 9 + 1 else l.length), true)) ∨
    (aS l = 0 ∧ fq l = false ∧ jW l = false ∧ mM l = true ∧ nx l = (aG, 3, false)) ∨
    (aS l = 0 ∧ fq l = false ∧ jW l = false ∧ mM l = false ∧ rP l = false ∧ cP l = 0 ∧ l = [] ∧ nx l = (aG, 0, false)) ∨
    (aS l = 0 ∧ fq l = false ∧ jW l = false ∧ mM l = false ∧ rP l = false ∧ 1 ≤ cP l ∧ nx l = (ff (ej false (l.take (cP l))), cP l, true)) := by
  by_cases hT : aS l = 0
  · have e1 : nx l = (if fq l = true then (gZ (fb l).1, (fb l).2, true) else if jW l = true then (rO ((l.drop 9).takeWhile (· != 62)), (if cO (· != 62) l 9 < l.length then cO (· != 62) l 9 + 1 else l.length), true) else if mM l = true then (aG, 3, false) else if cP l = 0 then (aG, 0, false) else (ff (ej false (l.take (cP l))), cP l, true)) := by
      unfold nx; rw [if_neg (by rw [hT]; decide)]
    cases hC : fq l
    · rw [hC, if_neg Bool.false_ne_true] at e1
      cases hD : jW l
      · rw [hD, if_neg Bool.false_ne_true] at e1
        cases hE : mM l
        · rw [hE, if_neg Bool.false_ne_true] at e1
          have hm : rP l = false := by unfold rP; rw [hC, hD, hE, hT]; rfl
          by_cases hN : cP l = 0
          · rw [if_pos hN] at e1
            have hl : l = [] := by
              cases l with
              | nil => rfl
              | cons c t => rw [cP, hm, if_neg Bool.false_ne_true] at hN; omega
            exact .inr (.inr (.inr (.inr (.inr (.inl ⟨hT, rfl, rfl, rfl, hm, hN, hl, e1⟩)))))
          · rw [if_neg hN] at e1
            exact .inr (.inr (.inr (.inr (.inr (.inr ⟨hT, rfl, rfl, rfl, hm, by omega, e1⟩)))))
        · rw [hE, if_pos rfl] at e1
          exact .inr (.inr (.inr (.inr (.inl ⟨hT, rfl, rfl, rfl, e1⟩))))
      · rw [hD, if_pos rfl] at e1
        exact .inr (.inr (.inr (.inl ⟨hT, rfl, rfl, e1⟩)))
    · rw [hC, if_pos rfl] at e1
      exact .inr (.inr (.inl ⟨hT, rfl, e1⟩))
  · have e1 := Kq l hT
    cases hr : gQ l with
    | none => rw [hr] at e1; exact .inl ⟨hT, rfl, e1⟩
    | some r => obtain ⟨t, n⟩ := r; rw [hr] at e1; exact .inr (.inl ⟨hT, t, n, rfl, e1⟩)
theorem Fq (l:ab):(nx l).2.1≤l.length∧(l≠[]→1≤(nx l).2.1):=by
 have hlen:l≠[]→1≤l.length:=fun h=>List.length_pos_iff.2 h
 rcases fQ l with ⟨h,-,e⟩|⟨h,t,n,hr,e⟩|⟨-,h,e⟩|⟨-,-,h,e⟩|⟨-,-,-,h,e⟩|⟨-,-,-,-,-,-,h,e⟩|⟨-,-,-,-,-,h,e⟩
 all_goals rw [e];simp only
 ·exact ⟨Nat.le_refl _,hlen⟩
 ·obtain ⟨h1,h2,-⟩:=ep l t n hr
  exact ⟨h2,fun _=>by omega⟩
 ·have:=sW l [] h
  exact ⟨this.2.1,fun _=>by omega⟩
 ·have:=wQ l h
  split
  ·exact ⟨by omega,fun _=>by omega⟩
  ·exact ⟨Nat.le_refl _,hlen⟩
 ·have:=(List.isPrefixOf_iff_prefix.1 h).length_le
  exact ⟨this,fun _=>by omega⟩
 ·subst h;exact ⟨Nat.zero_le _,fun h=>absurd rfl h⟩
 ·exact ⟨uy l,fun _=>h⟩
theorem tf (t:am) (L:List am) (h:t.kind≠0):bN (t::L)=t::bN L:=by
 unfold bN;rw [cE,if_neg h];rfl
inductive qH:List am→Prop
 |nil:qH []
 |mark (t:am) (L:List am):t.kind≠0→qH L→qH (t::L)
 |text (x:ab) (L:List am):x≠[]→qH L→(∀t,L.head?=some t→t.kind≠0)→qH (ff x::L)
theorem zt (p:UInt8→Bool) (s:ab) (k i:Nat):cO p s (k+i)=k+cO p (s.drop k) i:=by
 unfold cO;rw [List.drop_drop];omega
theorem th (s:ab) (a:Int):zr s a=zr s ((ix s a:Nat):Int):=by
 unfold zr;rw [fZ s _ (fX s a)]
theorem ti (s:ab) (a:Int):(jV s a).1.attrs=[]:=by unfold jV;split<;>rfl
theorem tj (s:ab) (a:Int):(o7 s a).1.attrs=[]:=by unfold o7;split<;>rfl
theorem AU (s:ab) (k:Nat) (hk:k≤s.length):(fM s (k:Int)=true∧zr s (k:Int)=nW s (k:Int))∨(fM s (k:Int)=false∧dJ s (k:Int)=true∧zr s (k:Int)=jV s (k:Int))∨(fM s (k:Int)=false∧dJ s (k:Int)=false∧dz s (k:Int)=true∧zr s (k:Int)=o7 s (k:Int))∨(fM s (k:Int)=false∧dJ s (k:Int)=false∧dz s (k:Int)=false∧iO s (k:Int)=true∧zr s (k:Int)=(aG,(k:Int)+3,false))∨(fM s (k:Int)=false∧dJ s (k:Int)=false∧dz s (k:Int)=false∧iO s (k:Int)=false∧bp s (k:Int)=k∧zr s (k:Int)=(aG,(k:Int),false))∨(fM s (k:Int)=false∧dJ s (k:Int)=false∧dz s (k:Int)=false∧iO s (k:Int)=false∧k<bp s (k:Int)∧zr s (k:Int)=(ff (rR s (k:Int)),(bp s (k:Int):Int),true)):=by
 have hn:zr s (k:Int)=((nx (s.drop k)).1,((k+(nx (s.drop k)).2.1:Nat):Int),(nx (s.drop k)).2.2):=by
  unfold zr;rw [fZ s k hk]
 have he:iO s (k:Int)=mM (s.drop k):=by
  unfold iO
  rw [show decide (0≤(k:Int))=true from decide_eq_true (by omega),Bool.true_and,show ((k:Nat):Int).toNat=k by omega]
 have hx:bp s (k:Int)=k+cP (s.drop k):=by unfold bp;rw [fZ s k hk]
 have hd:(s.drop k).length=s.length-k:=List.length_drop
 rw [EF,kU,px,he,hx,hn]
 rcases fQ (s.drop k) with ⟨h,hr,e⟩|⟨h,t,n,hr,e⟩|⟨h0,h,e⟩|⟨h0,h1,h,e⟩|⟨h0,h1,h2,h,e⟩|⟨h0,h1,h2,h3,-,hN,h,e⟩|⟨h0,h1,h2,h3,-,h,e⟩
 all_goals rw [e]
 ·refine .inl ⟨decide_eq_true h,?_⟩
  rw [qr s k h hr,hd]
  simp only [Prod.mk.injEq,true_and,and_true];omega
 ·exact .inl ⟨decide_eq_true h,by rw [qs s k h t n hr]⟩
 ·exact .inr (.inl ⟨by rw [h0];rfl,h,by rw [y4 s k h]⟩)
 ·refine .inr (.inr (.inl ⟨by rw [h0];rfl,h1,h,?_⟩))
  rw [y9 s k h,zt,List.drop_drop,hd]
  simp only [Prod.mk.injEq,true_and,and_true]
  split<;>split<;>omega
 ·exact .inr (.inr (.inr (.inl ⟨by rw [h0];rfl,h1,h2,h,by simp only [Prod.mk.injEq,true_and,and_true];omega⟩)))
 ·exact .inr (.inr (.inr (.inr (.inl ⟨by rw [h0];rfl,h1,h2,h3,by omega,by simp only [Prod.mk.injEq,true_and,and_true];omega⟩))))
 ·refine .inr (.inr (.inr (.inr (.inr ⟨by rw [h0];rfl,h1,h2,h3,by omega,?_⟩))))
  unfold rR
  rw [fZ s k hk]
theorem uJ (l : ab) : (nx l).1.text.length ≤ 3 * (l.length + 1) := by
  rcases fQ l with ⟨h, -, e⟩ | ⟨h, t, n, hr, e⟩ | ⟨-, h, e⟩ | ⟨-, -, h, e⟩ | ⟨-, -, -, h, e⟩ | ⟨-, -, -, -, -, -, h, e⟩ | ⟨-, -, -, -, -, h, e⟩
  all_goals rw [e]; simp only
  · simp [aG]
  · obtain ⟨-, -, -, al, self, ht, -⟩ := ep l t n hr
    rw [ht]; unfold ux
    split <;> simp
  · have h1 := (sW l [] h).2.2.1
    have h2 := (dR (fb l).1).2
    show (ap (fb l).1).length ≤ _
    omega
  · have h1 := (List.takeWhile_sublist (l := l.drop 9) (· != 62)).length_le
    have h2 := (dR ((l.drop 9).takeWhile (· != 62))).2
    rw [List.length_drop] at h1
    show (ap ((l.drop 9).takeWhile (· != 62))).length ≤ _
    omega
  · simp [aG]
  · simp [aG]
  · have h2 := ki false _ (l.take (cP l)) (Nat.le_refl _)
    rw [List.length_take] at h2
    show (ej false (l.take (cP l))).length ≤ _
    omega
theorem Cu (st:Int) (nm l:ab):(eQ st nm l).length≤9*l.length:=by
 unfold eQ kn
 have h1:(l.take (aR st nm l)).length≤l.length:=by rw [List.length_take];omega
 split
 ·have h2:=(dR (ej false (l.take (aR st nm l)))).2
  have h3:=ki false _ (l.take (aR st nm l)) (Nat.le_refl _)
  omega
 ·have h2:=(dR (l.take (aR st nm l))).2
  omega
theorem pA (st:Int) (nm l:ab):aR st nm l≤l.length:=by
 unfold aR
 split
 ·exact (py nm l).1
 ·split
  ·exact (ES 0 0 l (by decide)).1
  ·exact Nat.le_refl _
theorem n9 (st:Int) (nm s:ab) (k:Nat) (hk:k≤s.length) (hst:1≤st∧st≤4):k+aR st nm (s.drop k)≤s.length∧(k+aR st nm (s.drop k)=s.length→fu st nm s (k:Int)=(ba (eQ st nm (s.drop k)),k+aR st nm (s.drop k)))∧(k+aR st nm (s.drop k)<s.length→∀t n ok,nW s ((k+aR st nm (s.drop k):Nat):Int)=(t,n,ok)→(fu st nm s (k:Int)).1=ba (eQ st nm (s.drop k))++(if ok=true then [t] else [])∧((fu st nm s (k:Int)).2:Int)=n):=by
 have hle:=pA st nm (s.drop k)
 rw [List.length_drop] at hle
 have hd:(s.drop k).length=s.length-k:=List.length_drop
 have hr:fu st nm s (k:Int)=((df st nm (s.drop k)).1,k+(df st nm (s.drop k)).2):=by unfold fu;rw [fZ s k hk]
 rw [hr]
 unfold df
 rw [if_pos hst]
 refine ⟨by omega,fun h=>?_,fun h t n ok ht=>?_⟩
 ·rw [if_pos (by omega)]
  simp only [Prod.mk.injEq,true_and];omega
 ·rw [if_neg (by omega)]
  have hdd:(s.drop k).drop (aR st nm (s.drop k))=s.drop (k+aR st nm (s.drop k)):=List.drop_drop
  rw [hdd]
  by_cases hb:aS (s.drop (k+aR st nm (s.drop k)))=0
  ·rw [if_neg (by rw [hb];decide)]
   rw [(mK s _ (fun h=>by
    rw [show (((k+aR st nm (s.drop k):Nat):Int)).toNat=k+aR st nm (s.drop k) by omega] at h
    exact h.2 hb)).1] at ht
   simp only [Prod.mk.injEq] at ht
   obtain ⟨-,rfl,rfl⟩:=ht
   exact ⟨by simp,rfl⟩
  ·rw [if_pos hb]
   cases hx:gQ (s.drop (k+aR st nm (s.drop k))) with
   |none=>
    rw [qr s _ hb hx] at ht
    simp only [Prod.mk.injEq] at ht
    obtain ⟨-,rfl,rfl⟩:=ht
    exact ⟨by simp,by simp only;omega⟩
   |some r=>
    obtain ⟨u,m⟩:=r
    rw [qs s _ hb u m hx] at ht
    simp only [Prod.mk.injEq] at ht
    obtain ⟨rfl,rfl,rfl⟩:=ht
    exact ⟨by simp,by simp only;omega⟩
theorem tk (st:Int) (nm s:ab) (k:Nat) (hk:k≤s.length) (hst:¬(1≤st∧st≤4)):fu st nm s (k:Int)=([],k):=by
 unfold fu df
 rw [fZ s k hk,if_neg hst];rfl
theorem oN (st:Int) (nm s:ab) (a:Int):fu st nm s a=fu st nm s ((ix s a:Nat):Int):=by
 unfold fu;rw [fZ s _ (fX s a)]
theorem tl (x:ab) (t:am) (h:t∈ba x):t.text=x:=by
 unfold ba at h
 split at h
 ·cases h
 ·simp only [List.mem_cons,List.not_mem_nil,or_false] at h
  rw [h];rfl
theorem xo (l:ab) (t:am) (n:Nat) (hr:gQ l=some (t,n)):t.text=[]:=by
 obtain ⟨-,-,-,al,self,ht,-⟩:=ep l t n hr
 rw [ht];unfold ux
 split<;>rfl
theorem pB (st:Int) (nm l:ab):(df st nm l).2≤l.length∧∀t∈(df st nm l).1,t.text.length≤9*l.length:=by
 have h0:=pA st nm l
 have hs:=Cu st nm l
 have he:∀t∈ba (eQ st nm l),t.text.length≤9*l.length:=fun t h=>by rw [tl _ _ h];exact hs
 unfold df
 split
 ·split
  ·exact ⟨Nat.le_refl _,he⟩
  ·split
   ·cases hr:gQ (l.drop (aR st nm l)) with
    |none=>exact ⟨Nat.le_refl _,he⟩
    |some r=>
     obtain ⟨t,n⟩:=r
     obtain ⟨-,h2,-⟩:=ep _ t n hr
     rw [List.length_drop] at h2
     refine ⟨by simp only;omega,fun u hu=>?_⟩
     rcases List.mem_append.1 hu with h3|h3
     ·exact he u h3
     ·simp only [List.mem_cons,List.not_mem_nil,or_false] at h3
      rw [h3,xo _ _ _ hr];simp
   ·exact ⟨h0,he⟩
 ·exact ⟨Nat.zero_le _,fun t h=>by cases h⟩
theorem Fr (s:ab) (k:Nat) (hk:k≤s.length):zr s (k:Int)=((nx (s.drop k)).1,((k+(nx (s.drop k)).2.1:Nat):Int),(nx (s.drop k)).2.2):=by
 unfold zr;rw [fZ s k hk]
end Go.Proofs.YtpmdcppnlggckaaGreatDoor
namespace Go.Proofs.YtpmdcppnlggckaaGreatDoor
open Go.RowKit Go.Lib
structure LV (t:am):Prop where
 kinds:t.kind=0∨t.kind=1∨t.kind=2∨t.kind=3∨t.kind=4
 text:t.kind=0→t.text≠[]∧t.name=[]
 tag:t.kind=1∨t.kind=2→t.text=[]∧∃d r,t.name=d::r∧97≤d.toNat∧d.toNat≤122
 rest:t.kind=3∨t.kind=4→t.name=[]∧t.attrs=[]
theorem qJ (x:ab):(ba x).length≤1:=by
 unfold ba;split<;>simp
theorem ob:∀(L:List am) (says:ab),(cE says L).length≤L.length+(ba says).length
 |[],says=>by unfold cE;omega
 |t::L,says=>by
  unfold cE
  split
  ·have h1:=ob L (says++t.text)
   have h2:=qJ (says++t.text)
   rw [List.length_cons];omega
  ·have h1:=ob L []
   rw [List.length_append,List.length_cons,List.length_cons]
   have h2:(ba []).length=0:=rfl
   omega
theorem Fs (L:List am):(bN L).length≤L.length:=by
 have h:=ob L []
 have h2:(ba []).length=0:=rfl
 unfold bN;omega
end Go.Proofs.YtpmdcppnlggckaaGreatDoor
namespace Go.Proofs.YtpmdcppnlggckaaGreatDoor
open Go.RowKit Go.Lib
def iZ (t:am):Prop:=t.kind=0→t.name=[]∧t.attrs=[]∧t.self=false
end Go.Proofs.YtpmdcppnlggckaaGreatDoor
namespace Go.Proofs.YtpmdcppnlggckaaGreatDoor
open Go.RowKit Go.Lib
def du (t:am):Bool:=decide (t.kind=0)&&decide (t.text=[])
def cU:List am→Nat × ab
 |[]=>(0,[])
 |t::L=>if t.kind=0 then ((cU L).1+1,t.text++(cU L).2) else (0,[])
theorem jF (t:am) (L:List am) (h:t.kind=0):cU (t::L)=((cU L).1+1,t.text++(cU L).2):=if_pos h
theorem qK (t:am) (L:List am) (h:t.kind≠0):cU (t::L)=(0,[]):=if_neg h
theorem xp:∀L:List am,(cU L).1≤L.length
 |[]=>Nat.le_refl _
 |t::L=>by
  have:=xp L
  unfold cU
  split
  ·simp only [List.length_cons];omega
  ·exact Nat.zero_le _
theorem mX:∀(L:List am) (says:ab),cE says (L.filter fun t=> !du t)=cE says L
 |[],_=>rfl
 |t::L,says=>by
  cases hs:du t
  ·rw [List.filter_cons_of_pos (by rw [hs];rfl)]
   unfold cE
   rw [mX L (says++t.text),mX L []]
  ·rw [List.filter_cons_of_neg (by rw [hs];decide),mX L says]
   have h:t.kind=0∧t.text=[]:=by simpa [du] using hs
   conv=>rhs;unfold cE
   rw [if_pos h.1,h.2,List.append_nil]
theorem qL:∀(L:List am) (says:ab),cE says L=ba (says++(cU L).2)++bN (L.drop (cU L).1)
 |[],says=>by simp [cE,cU,bN,ba]
 |t::L,says=>by
  by_cases h:t.kind=0
  ·rw [jF t L h]
   unfold cE
   rw [if_pos h,qL L (says++t.text),List.append_assoc,List.drop_succ_cons]
  ·rw [qK t L h,List.append_nil,List.drop_zero,tf t L h]
   unfold cE
   rw [if_neg h];rfl
theorem zu (t:am) (L:List am) (h:t.kind=0) (hs:du t=false):bN (t::L)=ff (cU (t::L)).2::bN ((t::L).drop (cU (t::L)).1):=by
 have hx:t.text≠[]:=fun e=>by simp [du,h,e] at hs
 have h1:=qL (t::L) []
 have h2:(cU (t::L)).2≠[]:=by
  rw [jF t L h]
  exact fun e=>hx (List.append_eq_nil_iff.1 e).1
 show cE [] (t::L)=_
 rw [h1,List.nil_append]
 unfold ba
 rw [if_neg h2];rfl
theorem zw (L:List am) (i:Nat) (h:i<L.length) (hk:L[i].kind=0):cU (L.drop i)=((cU (L.drop (i+1))).1+1,L[i].text++(cU (L.drop (i+1))).2):=by
 rw [←List.getElem_cons_drop h];exact jF _ _ hk
theorem zx (L:List am) (i:Nat) (h:i<L.length) (hk:L[i].kind≠0):cU (L.drop i)=(0,[]):=by
 rw [←List.getElem_cons_drop h];exact qK _ _ hk
theorem Cv (t:am) (L:List am) (h:t.kind=0):1≤(cU (t::L)).1:=by rw [jF t L h];simp
theorem xt (x:ab):iZ (ff x):=fun _=>⟨rfl,rfl,rfl⟩
theorem lc (x:ab):∀t∈ba x,iZ t:=fun t h=>by
 unfold ba at h
 split at h
 ·cases h
 ·simp only [List.mem_cons,List.not_mem_nil,or_false] at h
  rw [h];exact xt x
theorem xu (l:ab) (t:am) (n:Nat) (hr:gQ l=some (t,n)):iZ t:=by
 obtain ⟨-,-,-,al,self,ht,-⟩:=ep l t n hr
 rw [ht];unfold ux
 split<;>intro h<;>cases h
theorem Ix (l:ab):iZ (nx l).1:=by
 rcases fQ l with ⟨h,-,e⟩|⟨h,t,n,hr,e⟩|⟨-,h,e⟩|⟨-,-,h,e⟩|⟨-,-,-,h,e⟩|⟨-,-,-,-,-,-,h,e⟩|⟨-,-,-,-,-,h,e⟩
 all_goals rw [e];simp only
 ·exact fun _=>⟨rfl,rfl,rfl⟩
 ·exact xu l t n hr
 ·intro h;cases h
 ·intro h;cases h
 ·exact fun _=>⟨rfl,rfl,rfl⟩
 ·exact fun _=>⟨rfl,rfl,rfl⟩
 ·exact xt _
theorem Cw (st:Int) (nm l:ab):∀t∈(df st nm l).1,iZ t:=by
 intro t h
 unfold df at h
 split at h
 ·split at h
  ·exact lc _ t h
  ·split at h
   ·cases hr:gQ (l.drop (aR st nm l)) with
    |none=>rw [hr] at h;exact lc _ t h
    |some r=>
     obtain ⟨u,n⟩:=r
     rw [hr] at h
     rcases List.mem_append.1 h with h1|h1
     ·exact lc _ t h1
     ·simp only [List.mem_cons,List.not_mem_nil,or_false] at h1
      rw [h1];exact xu _ u n hr
   ·exact lc _ t h
 ·cases h
structure mY (L D:List aV) (j i:Nat):Prop where
 len:D.length=L.length
 ij:i<j
 jl:j≤L.length
 low:D.take i=(L.take j).filter fun q=> !du q.t
 high:D.drop j=L.drop j
theorem mY.get {L D:List aV} {j i:Nat} (h:mY L D j i) (hj:j<L.length):D[j]'(by rw [h.len];exact hj)=L[j]:=by
 have h1:=congrArg (fun l=>l[0]?) h.high
 simp only [List.getElem?_drop,Nat.add_zero] at h1
 rw [List.getElem?_eq_getElem (by rw [h.len];exact hj),List.getElem?_eq_getElem hj] at h1
 exact Option.some.inj h1
theorem mY.keep {L D:List aV} {j i:Nat} (h:mY L D j i) (hj:j<L.length) (hk:du L[j].t=false):mY L (D.set i L[j]) (j+1) (i+1):=by
 have hlen:=h.len
 have hij:=h.ij
 refine ⟨by rw [List.length_set];exact h.len,by omega,hj,?_,?_⟩
 ·rw [List.take_succ_eq_append_getElem (by rw [List.length_set];omega),List.take_set_of_le (Nat.le_refl _),List.getElem_set_self,h.low,List.take_succ_eq_append_getElem hj,List.filter_append]
  simp [hk]
 ·rw [List.drop_set_of_lt (by omega),←List.drop_drop,h.high,List.drop_drop]
theorem mY.skip {L D:List aV} {j i:Nat} (h:mY L D j i) (hj:j<L.length) (hk:du L[j].t=true):mY L D (j+1) i:=by
 have hij:=h.ij
 refine ⟨h.len,by omega,hj,?_,?_⟩
 ·rw [h.low,List.take_succ_eq_append_getElem hj,List.filter_append]
  simp [hk]
 ·rw [←List.drop_drop,h.high,List.drop_drop]
theorem oO {L:List aV} {k:Nat} (h:∀j (hj:j<L.length),j<k→du L[j].t=false) (hk:k≤L.length):(L.take k).filter (fun q=> !du q.t)=L.take k:=by
 refine List.filter_eq_self.2 fun q hq=>?_
 obtain ⟨j,hj,rfl⟩:=List.getElem_of_mem hq
 rw [List.length_take] at hj
 rw [List.getElem_take,h j (by omega) (by omega)];rfl
theorem mY.start {L:List aV} {k:Nat} (h:∀j (hj:j<L.length),j<k→du L[j].t=false) (hk:k<L.length) (hs:du L[k].t=true):mY L L (k+1) k:=by
 refine ⟨rfl,by omega,hk,?_,rfl⟩
 rw [List.take_succ_eq_append_getElem hk,List.filter_append,oO h (by omega)]
 simp [hs]
theorem mY.done {L D:List aV} {i:Nat} (h:mY L D L.length i):D.take i=L.filter fun q=> !du q.t:=by
 have:=h.low
 rwa [List.take_length] at this
theorem Ft (L:List aV):(L.filter fun q=> !du q.t).map aV.t=(L.map aV.t).filter fun t=> !du t:=by
 induction L with
 |nil=>rfl
 |cons q L ih=>
  rw [List.map_cons]
  by_cases h:du q.t=true
  ·rw [List.filter_cons_of_neg (by rw [h];decide),List.filter_cons_of_neg (by rw [h];decide)];exact ih
  ·rw [List.filter_cons_of_pos (by simpa using h),List.filter_cons_of_pos (by simpa using h),List.map_cons,ih]
end Go.Proofs.YtpmdcppnlggckaaGreatDoor
