/-
  A row of tokens that is rewritten in its place: one token stored over another, the places behind cleared.
-/
import Derived.Test.YtpmdcppnlggckaaGreatDoorQB
import Derived.Test.YtpmdcppnlggckaaGreatDoorQI
import Derived.Laws.CopyRow
import Derived.Deep.QuietTactic
namespace Go.Proofs.YtpmdcppnlggckaaGreatDoor
open Go.RowKit Go.Lib
def uM (w:World) (g:Nat) (q:aV):Prop:=
 bU w q.ad q.len q.cap q.t.attrs∧(q.t.attrs=[]∨∀k,(Value.slice q.ad q.len q.cap).ownBlock=some k→k≠g)
theorem uM.kept {w w':World} {g:Nat} {q:aV} (h:uM w g q) (hg:w.grownBy w' (some g)):uM w' g q:=by
 refine ⟨?_,h.2⟩
 rcases h.2 with h0|h0
 ·have h1:=h.1
  rw [h0] at h1⊢
  exact ⟨h1.1,h1.2.1,h1.2.2.1,fun i hi=>by cases hi⟩
 ·exact gn h.1 hg h0
structure gV (w:World) (g cap:Nat) (D:List aV) (R:List Value):Prop where
 heap:w.heap[g]? =some (.cells (af D++R).toArray 54 (0,0))
 size:(af D++R).length=cap*5
 fits:D.length≤cap
 most:cap≤maxLen
 atts:∀q∈D,uM w g q
theorem gV.lt {w:World} {g cap:Nat} {D:List aV} {R:List Value} (h:gV w g cap D R):g<w.heap.size:=(Array.getElem?_eq_some_iff.1 h.heap).1
theorem gV.below {w w':World} {B g cap:Nat} {D:List aV} {R:List Value} (h:gV w g cap D R) (hb:Below B w w') (hB:w.heap.size≤B):gV w' g cap D R:=
 ⟨(hb.block g (by have:=h.lt;omega)).trans h.heap,h.size,h.fits,h.most,fun q hq=>⟨(h.atts q hq).1.below hb hB,(h.atts q hq).2⟩⟩
theorem gV.cells {w:World} {g cap:Nat} {D:List aV} {R:List Value} (h:gV w g cap D R) (i:Nat) (hi:i<D.length):dZ w ⟨g,0,none⟩ i D[i]:=by
 obtain ⟨e0,e1,e2,e3,e4⟩:=gD D i hi
 have hl:=bJ D
 have hc:∀j u,(af D)[j]? =some u→w.cell? ((⟨g,0,none⟩:Addr).add j)=some u:=by
  intro j u hj
  have ea:(⟨g,0,none⟩:Addr).add j=⟨g,j,none⟩:=by simp [Addr.add];omega
  have hjl:j<(af D).length:=(List.getElem?_eq_some_iff.1 hj).1
  rw [ea,cell_of_row _ _ _ _ _ _ h.heap]
  simp only [List.getElem?_toArray]
  rw [List.getElem?_append_left hjl];exact hj
 exact ⟨hc _ _ e0,hc _ _ e1,hc _ _ e2,hc _ _ e3,hc _ _ e4⟩
theorem gV.asked {w:World} {g cap:Nat} {D:List aV} {R:List Value} (h:gV w g cap D R) (i:Nat) (hi:i<D.length):w.cell? ⟨g,i*5,none⟩=some (.int .i64 D[i].t.kind)∧w.cell? ⟨g,i*5+1,none⟩=some (.string ⟨D[i].t.name.toArray⟩)∧w.cell? ⟨g,i*5+2,none⟩=some (.string ⟨D[i].t.text.toArray⟩)∧w.cell? ⟨g,i*5+3,none⟩=some (.slice D[i].ad D[i].len D[i].cap)∧w.cell? ⟨g,i*5+4,none⟩=some (.bool D[i].t.self):=by
 have hx:=h.cells i hi
 have ea:∀j,(⟨g,0,none⟩:Addr).add j=⟨g,j,none⟩:=fun j=>by simp [Addr.add];omega
 exact ⟨by rw [←ea];exact hx.c0,by rw [←ea];exact hx.c1,by rw [←ea];exact hx.c2,by rw [←ea];exact hx.c3,by rw [←ea];exact hx.c4⟩
theorem aV.five_len (q:aV):q.five.length=5:=rfl
theorem qO:∀(D:List aV) (i:Nat) (q:aV) (_:i<D.length),af (D.set i q)=(af D).take (i*5)++q.five++(af D).drop (i*5+5)
 |d::D,0,q,_=>by
  show q.five++af D=(d.five++af D).take (0*5)++q.five++(d.five++af D).drop (0*5+5)
  rw [Nat.zero_mul,List.take_zero,List.nil_append,Nat.zero_add]
  rfl
 |d::D,i+1,q,h=>by
  have ih:=qO D i q (by simpa using h)
  show d.five++af (D.set i q)=(d.five++af D).take ((i+1)*5)++q.five++(d.five++af D).drop ((i+1)*5+5)
  have h1:(d.five++af D).take ((i+1)*5)=d.five++(af D).take (i*5):=by
   rw [List.take_append,List.take_of_length_le (by rw [aV.five_len];omega),aV.five_len,show (i+1)*5-5=i*5 by omega]
  have h2:(d.five++af D).drop ((i+1)*5+5)=(af D).drop (i*5+5):=by
   rw [List.drop_append,List.drop_eq_nil_of_le (by rw [aV.five_len];omega),aV.five_len,show (i+1)*5+5-5=i*5+5 by omega,List.nil_append]
  rw [ih,h1,h2]
  simp only [List.append_assoc]
theorem xA (D:List aV) (i:Nat) (h:i≤D.length):(af D).take (i*5)=af (D.take i):=by
 have e:af D=af (D.take i)++af (D.drop i):=by rw [gU,List.take_append_drop]
 rw [e,List.take_append_of_le_length (by rw [bJ,List.length_take];omega),List.take_of_length_le (by rw [bJ,List.length_take];omega)]
theorem IA (D:List aV) (R:List Value) (i:Nat) (q:aV) (h:i<D.length):(af D++R).take (i*5)++q.five++(af D++R).drop (i*5+5)=af (D.set i q)++R:=by
 have hl:=bJ D
 rw [qO D i q h,List.take_append_of_le_length (by omega),List.drop_append_of_le_length (by omega)]
 simp only [List.append_assoc]
theorem FH (D Z:List aV) (R:List Value) (i:Nat) (h:i≤D.length) (hz:Z.length=D.length-i):(af D++R).take (i*5)++af Z++(af D++R).drop (i*5+(af Z).length)=af (D.take i++Z)++R:=by
 have hl:=bJ D
 have hzl:=bJ Z
 rw [List.take_append_of_le_length (by omega),xA D i h,←gU,hzl,hz,List.drop_append,List.drop_eq_nil_of_le (by omega),hl,show i*5+(D.length-i)*5-D.length*5=0 by omega]
 simp
theorem qP (z:Array Value) (q:aV) (hz:z.toList=q.five):∀n:Nat,(Builtin.zeroCells z n).toList=af (List.replicate n q)
 |0=>by simp [af,Builtin.zeroCells]
 |n+1=>by
  have ih:=qP z q hz n
  unfold Builtin.zeroCells at ih⊢
  have hs:z.size=5:=by rw [←Array.length_toList,hz];rfl
  rw [hs] at ih⊢
  rw [show List.replicate (n+1) q=List.replicate n q++[q] from List.replicate_succ',←gU,←ih]
  have hq:∀j (h:j<5),z[j]! =q.five[j]'(by rw [aV.five_len];exact h):=fun j h=>by
   rw [getElem!_pos z j (by omega)]
   simp only [←hz,Array.getElem_toList]
  have hm:∀j,j<5→(n*5+j)%5=j:=fun j h=>by omega
  simp only [Array.toList_map,Array.toList_range]
  rw [show (n+1)*5=n*5+5 by omega,List.range_add]
  simp only [List.map_append,List.map_map]
  congr 1
  simp only [show List.range 5=[0,1,2,3,4] from rfl,List.map_cons,List.map_nil,Function.comp,hm _ (by decide:0<5),hm 1 (by decide),hm 2 (by decide),hm 3 (by decide),hm 4 (by decide),hq 0 (by decide),hq 1 (by decide),hq 2 (by decide),hq 3 (by decide),hq 4 (by decide)]
  simp [af,aV.five]
theorem mZ (w:World) (g:Nat) (cs:Array Value):w.grownBy (w.setRow g cs) (some g):=
 ⟨rfl,rfl,rfl,by simp [World.setRow],fun k _ hk=>setRow_other w g k cs (fun e=>hk (by rw [e]))⟩
theorem xB {w:World} {g cap:Nat} {D:List aV} {R:List Value} (h:gV w g cap D R) (i:Nat) (hi:i<D.length) (q:aV) (hq:uM w g q):∃w',(storeVar 54 ⟨g,i*5,none⟩ (dU q.t q.ad q.len q.cap)).run Tryz.prog w= .ok () w'∧gV w' g cap (D.set i q) R∧w.grownBy w' (some g):=by
 have hl:=bJ D
 have hst:=run_storeCells_at (P:=Tryz.prog) g (i*5) 54 q.five 0 _ w h.heap (by rw [List.size_toArray,List.length_append,aV.five_len];omega) (fun u hu=>la [q] u (by rw [bo];exact hu))
 simp only [Nat.add_zero,aV.five_len] at hst
 rw [IA D R i q hi] at hst
 have hg:=mZ w g (af (D.set i q)++R).toArray
 refine ⟨_,?_,⟨setRow_heap w g _ _ _ _ h.heap,?_,by rw [List.length_set];exact h.fits,h.most,fun u hu=>?_⟩,hg⟩
 ·have hs:=um
  cases hi':Tryz.prog.info? 54 with
  |none=>simp [hi'] at hs
  |some j=>
   have hj:j.size=5:=by simpa [hi'] using hs
   have hcs:(dU q.t q.ad q.len q.cap).cells=q.five.toArray:=rfl
   simp [storeVar,sizeOf,typeInfo,hi',hj,hcs,aV.five_len,hst]
 ·have:=h.size
  rw [List.length_append,bJ] at this⊢
  rw [List.length_set];exact this
 ·rcases List.mem_or_eq_of_mem_set hu with h1|h1
  ·exact (h.atts u h1).kept hg
  ·rw [h1];exact hq.kept hg
def qQ:aV:=⟨aG,none,0,0⟩
theorem IB (w:World) (g:Nat):uM w g qQ:=⟨aq w,.inl rfl⟩
theorem zB {w:World} {g cap:Nat} {D:List aV} {R:List Value} (h:gV w g cap D R) (i:Nat) (hi:i≤D.length) (t ty:TypeId) (ht:Tryz.prog.underlying t=some (.slice 54)) (n c:Nat) (hn:n=D.length-i):∃w',(Builtin.clear_ #[t] ty #[.slice (some ⟨g,i*5,none⟩) n c]).run Tryz.prog w= .ok (.tuple #[]) w'∧gV w' g cap (D.take i++List.replicate n qQ) R∧w.grownBy w' (some g):=by
 subst hn
 have hl:=bJ D
 have hzl:=bJ (List.replicate (D.length-i) qQ)
 rw [List.length_replicate] at hzl
 have hst:=run_storeCells_at (P:=Tryz.prog) g (i*5) 54 (af (List.replicate (D.length-i) qQ)) 0 _ w h.heap (by rw [List.size_toArray,List.length_append,hzl];omega) (la _)
 simp only [Nat.add_zero] at hst
 rw [FH D _ R i hi (by rw [List.length_replicate])] at hst
 have hzc:(Builtin.zeroCells (Value.agg #[.int .i64 0,.string ⟨#[]⟩,.string ⟨#[]⟩,.slice none 0 0,.bool false]).cells (D.length-i)).toList=af (List.replicate (D.length-i) qQ):=qP _ qQ rfl _
 by_cases h0:D.length-i=0
 ·rw [h0]
  refine ⟨w,?_,?_,World.grownBy.refl w _⟩
  ·simp [Builtin.clear_,run_underlying ht]
  ·rw [List.replicate_zero,List.append_nil,List.take_of_length_le (by omega)];exact h
 ·have hg:=mZ w g (af (D.take i++List.replicate (D.length-i) qQ)++R).toArray
  refine ⟨_,?_,⟨setRow_heap w g _ _ _ _ h.heap,?_,?_,h.most,fun u hu=>?_⟩,hg⟩
  ·obtain ⟨m,hm⟩:∃m,D.length-i=m+1:=⟨D.length-i-1,by omega⟩
   rw [hm] at hzc hst⊢
   simp [Builtin.clear_,run_underlying ht,hzc,hst]
  ·have:=h.size
   rw [List.length_append,bJ] at this⊢
   rw [List.length_append,List.length_take,List.length_replicate]
   have hx:min i D.length+(D.length-i)=D.length:=by omega
   rw [hx];exact this
  ·rw [List.length_append,List.length_take,List.length_replicate]
   have:=h.fits
   omega
  ·rcases List.mem_append.1 hu with h1|h1
   ·exact (h.atts u (List.mem_of_mem_take h1)).kept hg
   ·rw [List.eq_of_mem_replicate h1];exact (IB w g).kept hg
theorem l8 {ops:Array Oper} {rest:List Oper} {o:Oper} {a:Act} {w:World} {Q:Exit→Act→World→Prop} (hgd:o.guard=none) (x y:Operand) (ho:o.op= .store 54 x y) (g i:Nat) (q:aV) (p:Addr) (hx:a.eval x= .pointer (some p)) (hp:p=⟨g,i*5,none⟩) (hy:a.eval y=dU q.t q.ad q.len q.cap) {cap:Nat} {D:List aV} {R:List Value} (h:gV w g cap D R) (hi:i<D.length) (hq:uM w g q) (hK:∀w',gV w' g cap (D.set i q) R→w.grownBy w' (some g)→wpList Tryz.prog ops Q rest (a.put o.dst undef) w'):wpList Tryz.prog ops Q (o::rest) a w:=by
 refine wpList_plain hgd fun K hK'=>?_
 obtain ⟨w',hr,h1,h2⟩:=xB h i hi q hq
 subst hp
 unfold Oper.wp execOp
 simp only [ho,hx,hy,Instr.storeAt,Instr.sureAddr,Sem.run_bind,Sem.run_pure,Result.andThen_ok,hr]
 exact hK' _ _ (hK w' h1 h2)
end Go.Proofs.YtpmdcppnlggckaaGreatDoor
