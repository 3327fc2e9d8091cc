/-
  Texts laid together: Owns, TkLits.
-/
import Derived.Deep.AppendSrc
import Derived.Lib.FrozenHead2
import Derived.Laws.IdiomStrings
import Derived.Laws.IdiomCopy
import Derived.Lib.OthersKept
import Derived.Below
import Derived.OwnWalk
import Derived.Deep.Draws
import Derived.Test.YtajpoodpbbbkfaaGreatDoorQB
namespace Go.Proofs.YtajpoodpbbbkfaaGreatDoor
open Go.RowKit
def da (w:World) (base:Nat) (e:TypeId) (size:Nat) (v:Value) (n:Nat) (xs:List Value):Prop:=
 xs.length=n*size∧((v= .slice none 0 0∧n=0)∨∃g cap cur fz,v= .slice (some ⟨g,0,none⟩) n cap∧base≤g∧w.heap[g]? =some (.cells cur e fz)∧(fz.2≤n*size∨cap*size≤fz.1)∧n≤cap∧cap≤maxLen∧cur.size=cap*size∧cur.toList.take (n*size)=xs)
section
variable {w w':World} {base:Nat} {e:TypeId} {size:Nat} {v:Value} {n:Nat} {xs:List Value}
theorem da.nil (w:World) (base:Nat) (e:TypeId) (size:Nat):da w base e size (.slice none 0 0) 0 []:=⟨by simp,.inl ⟨rfl,rfl⟩⟩
theorem da.lt (h:da w base e size v n xs):∀k,v.ownBlock=some k→base≤k∧k<w.heap.size:=by
 intro k hk
 rcases h.2 with ⟨rfl,_⟩|⟨g,cap,cur,fz,rfl,hb,hg,_⟩
 ·simp [Value.ownBlock] at hk
 ·have:g=k:=by simpa [Value.ownBlock] using hk
  subst this
  exact ⟨hb,(Array.getElem?_eq_some_iff.1 hg).1⟩
theorem da.kept {row:Option Nat} (h:da w base e size v n xs) (hg:w.grownBy w' row) (hne:v.ownBlock=none∨v.ownBlock≠row):da w' base e size v n xs:=by
 refine ⟨h.1,?_⟩
 rcases h.2 with h|⟨g,cap,cur,fz,rfl,hb,hh,r⟩
 ·exact .inl h
 ·refine .inr ⟨g,cap,cur,fz,rfl,hb,?_,r⟩
  rw [hg.block g (Array.getElem?_eq_some_iff.1 hh).1 (fun e=>by rcases hne with h|h<;>simp [Value.ownBlock] at h;exact h e)]
  exact hh
theorem da.alloc (h:da w base e size v n xs) (o:Obj):da (w.alloc o) base e size v n xs:=by
 refine ⟨h.1,?_⟩
 rcases h.2 with h|⟨g,cap,cur,fz,rfl,hb,hh,r⟩
 ·exact .inl h
 ·exact .inr ⟨g,cap,cur,fz,rfl,hb,(Below.heap_alloc w o g (Array.getElem?_eq_some_iff.1 hh).1).trans hh,r⟩
theorem da.drew (h:da w base e size v n xs):da w.drew base e size v n xs:=h
theorem da.drewN (h:da w base e size v n xs) (k:Nat):da (w.drewN k) base e size v n xs:=h
theorem da.below {B:Nat} (h:da w base e size v n xs) (hb:Below B w w') (hB:w.heap.size≤B):da w' base e size v n xs:=by
 refine ⟨h.1,?_⟩
 rcases h.2 with h|⟨g,cap,cur,fz,rfl,hbg,hh,r⟩
 ·exact .inl h
 ·exact .inr ⟨g,cap,cur,fz,rfl,hbg,(hb.block g (by have:=(Array.getElem?_eq_some_iff.1 hh).1;omega)).trans hh,r⟩
theorem da.cells (h:da w base e size v n xs) {g:Nat} (hg:v.ownBlock=some g):∀j u,xs[j]? =some u→w.cell? ((⟨g,0,none⟩:Addr).add j)=some u:=by
 intro j u hj
 rcases h.2 with ⟨rfl,_⟩|⟨g',cap,cur,fz,rfl,hb,hh,_,hnc,_,hcs,htake⟩
 ·simp [Value.ownBlock] at hg
 ·have:g'=g:=by simpa [Value.ownBlock] using hg
  subst this
  have hjl:j<xs.length:=(List.getElem?_eq_some_iff.1 hj).1
  rw [h.1] at hjl
  have hns:n*size≤cap*size:=Nat.mul_le_mul_right _ hnc
  have e1:(⟨g',0,none⟩:Addr).add j=⟨g',j,none⟩:=by simp [Addr.add];omega
  rw [e1]
  have:cur.toList[j]? =some u:=by
   rw [←htake,List.getElem?_take] at hj
   simpa [hjl] using hj
  simp only [World.cell?,hh]
  simpa using this
theorem da.form (h:da w base e size v n xs):∃a cap,v= .slice a n cap∧n≤cap∧cap≤maxLen:=by
 rcases h.2 with ⟨rfl,rfl⟩|⟨g,cap,cur,fz,rfl,hb,hh,_,hnc,hm,_⟩
 ·exact ⟨none,0,rfl,Nat.le_refl _,Nat.zero_le _⟩
 ·exact ⟨_,cap,rfl,hnc,hm⟩
theorem da.new (w:World) (C:Array Value) (fz:Nat × Nat) (base:Nat) (e:TypeId) (size n cap:Nat) (hb:base≤w.heap.size) (hz:fz.2≤n*size∨cap*size≤fz.1) (hn:n≤cap) (hm:cap≤maxLen) (hc:C.size=cap*size):da (w.alloc (.cells C e fz)) base e size (.slice (some ⟨w.heap.size,0,none⟩) n cap) n (C.toList.take (n*size)):=by
 refine ⟨?_,.inr ⟨w.heap.size,cap,C,fz,rfl,hb,heap_alloc_new w _,hz,hn,hm,hc,rfl⟩⟩
 have:n*size≤cap*size:=Nat.mul_le_mul_right _ hn
 rw [List.length_take,Array.length_toList,hc]
 omega
end
section
variable {P:Program} (w:World)
end
end Go.Proofs.YtajpoodpbbbkfaaGreatDoor
namespace Go.Proofs.YtajpoodpbbbkfaaGreatDoor
open Go.RowKit Go.Lib
def cd (w:World) (B:Nat) (a:Option Addr) (len cap:Nat) (L:List aq):Prop:=
 L.length=len∧len≤cap∧cap≤maxLen∧∀i (h:i<L.length),∃x ad ln cp,a=some x∧eC w x i ⟨L[i],ad,ln,cp⟩∧cf w ad ln cp L[i].attrs∧(L[i].attrs=[]∨∀k,(Value.slice ad ln cp).ownBlock=some k→B≤k)
theorem cd.toks {w:World} {B:Nat} {a:Option Addr} {len cap:Nat} {L:List aq} (h:cd w B a len cap L):gr w a len cap L:=
 ⟨h.1,h.2.1,h.2.2.1,fun i hi=>by
  obtain ⟨x,ad,ln,cp,h1,h2,h3,-⟩:=h.2.2.2 i hi
  exact ⟨x,ad,ln,cp,h1,h2,h3⟩⟩
theorem cd.below {w w':World} {B C:Nat} {a:Option Addr} {len cap:Nat} {L:List aq} (h:cd w B a len cap L) (hb:Below C w w') (hC:w.heap.size≤C):cd w' B a len cap L:=
 ⟨h.1,h.2.1,h.2.2.1,fun i hi=>by
  obtain ⟨x,ad,ln,cp,h1,h2,h3,h4⟩:=h.2.2.2 i hi
  exact ⟨x,ad,ln,cp,h1,h2.below hb hC,h3.below hb hC,h4⟩⟩
def Pc (L:List aq) (w:World) (e:Ending) (w':World):Prop:=
 ∃ad len cap,e= .returned (.slice ad len cap)∧cd w' w.heap.size ad len cap L∧Below w.heap.size w w'
def qL (w:World) (base:Nat) (v:Value) (Q:List aY):Prop:=
 da w base 33 5 v Q.length (ag Q)∧∀q∈Q,g8 w v q
theorem qL.below {w w':World} {base:Nat} {v:Value} {Q:List aY} (h:qL w base v Q) (hb:Below w.heap.size w w'):qL w' base v Q:=
 ⟨h.1.below hb (Nat.le_refl _),fun q hq=>⟨(h.2 q hq).1.below hb (Nat.le_refl _),(h.2 q hq).2⟩⟩
theorem qL.app {w w':World} {base:Nat} {v v':Value} {Q R:List aY} (h:qL w base v Q) (hR:∀q∈R,g8 w v q) (hown:da w' base 33 5 v' (Q.length+R.length) (ag Q++ag R)) (hg:w.grownBy w' v.ownBlock) (hw:v'.ownBlock=v.ownBlock∨v'.ownBlock=some w.heap.size):qL w' base v' (Q++R):=by
 refine ⟨by rw [List.length_append,←iP];exact hown,fun q hq=>?_⟩
 have hq':g8 w v q:=by
  rcases List.mem_append.1 hq with h1|h1
  ·exact h.2 q h1
  ·exact hR q h1
 refine ⟨vD hq' hg,?_⟩
 rcases hq'.2 with h0|h0
 ·exact .inl h0
 ·by_cases he:q.t.attrs=[]
  ·exact .inl he
  ·refine .inr fun k hk=>?_
   rcases hw with h1|h1
   ·rw [h1];exact h0 k hk
   ·rw [h1]
    obtain ⟨x,hx,c1,-⟩:=hq'.1.2.2.2 0 (List.length_pos_iff.2 he)
    have hlt:=block_lt_of_cell c1
    rw [show (x.add (0*2)).block=x.block by unfold Addr.add;split<;>rfl] at hlt
    rw [hx] at hk
    have:x.block=k:=by simpa [Value.ownBlock] using hk
    intro e
    have:=Option.some.inj e
    omega
theorem qL.told {w:World} {base:Nat} {v:Value} {Q:List aY} (h:qL w base v Q):∃a cap,v= .slice a Q.length cap∧gr w a Q.length cap (Q.map aY.t):=by
 obtain ⟨a,cap,hv,hn,hm⟩:=h.1.form
 refine ⟨a,cap,hv,by simp,hn,hm,fun i hi=>?_⟩
 have hi':i<Q.length:=by simpa using hi
 obtain ⟨e0,e1,e2,e3,e4⟩:=iz Q i hi'
 have hown0:∃g,v.ownBlock=some g∧a=some ⟨g,0,none⟩:=by
  rcases h.1.2 with ⟨-,h0⟩|⟨g,c,cur,fz,hvv,-⟩
  ·omega
  ·rw [hv] at hvv
   simp only [Value.slice.injEq] at hvv
   exact ⟨g,by rw [hv,hvv.1];rfl,hvv.1⟩
 obtain ⟨g,hg,ha⟩:=hown0
 have hc:=h.1.cells hg
 refine ⟨⟨g,0,none⟩,Q[i].ad,Q[i].len,Q[i].cap,ha,⟨?_,?_,?_,?_,?_⟩,?_⟩
 all_goals simp only [List.getElem_map]
 ·exact hc _ _ e0
 ·exact hc _ _ e1
 ·exact hc _ _ e2
 ·exact hc _ _ e3
 ·exact hc _ _ e4
 ·exact (h.2 Q[i] (List.getElem_mem hi')).1
end Go.Proofs.YtajpoodpbbbkfaaGreatDoor
