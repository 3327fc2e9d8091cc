/-
  Texts laid together: Toks, TkAll, TkMath, TkLaws, TkFew, TkHeads.
-/
import Derived.Test.YtajpoodpbbbkfaaGreatDoorPT
import Derived.Maps.AppendAt
import Derived.Below
import Derived.Deep.RegionHeld3
import Derived.Test.YtajpoodpbbbkfaaGreatDoorQA
import Derived.KernelRfl
namespace Go.Proofs.YtajpoodpbbbkfaaGreatDoor
open Go.RowKit Go.Lib
structure aY where
 t:aq
 ad:Option Addr
 len:Nat
 cap:Nat
def aY.five (q:aY):List Value:=[.int .i64 q.t.kind,.string ⟨q.t.name.toArray⟩,.string ⟨q.t.text.toArray⟩,.slice q.ad q.len q.cap,.bool q.t.self]
def ag (Q:List aY):List Value:=Q.flatMap aY.five
theorem qE (q:aY) (Q:List aY):ag (q::Q)= .int .i64 q.t.kind:: .string ⟨q.t.name.toArray⟩:: .string ⟨q.t.text.toArray⟩:: .slice q.ad q.len q.cap:: .bool q.t.self::ag Q:=rfl
theorem iP (Q R:List aY):ag Q++ag R=ag (Q++R):=by simp [ag]
theorem bt (q:aY):ag [q]=q.five:=by simp [ag]
theorem bR (Q:List aY):(ag Q).length=Q.length*5:=by
 induction Q with
 |nil=>rfl
 |cons q Q ih=>rw [qE];simp only [List.length_cons,ih];omega
theorem iz:∀(Q:List aY) (i:Nat) (h:i<Q.length),(ag Q)[i*5]? =some (.int .i64 Q[i].t.kind)∧(ag Q)[i*5+1]? =some (.string ⟨Q[i].t.name.toArray⟩)∧(ag Q)[i*5+2]? =some (.string ⟨Q[i].t.text.toArray⟩)∧(ag Q)[i*5+3]? =some (.slice Q[i].ad Q[i].len Q[i].cap)∧(ag Q)[i*5+4]? =some (.bool Q[i].t.self)
 |q::Q,0,_=>⟨rfl,rfl,rfl,rfl,rfl⟩
 |q::Q,i+1,h=>by
  obtain ⟨a,b,c,d,e⟩:=iz Q i (by simpa using h)
  rw [qE,show (i+1)*5=i*5+1+1+1+1+1 by omega]
  simp only [List.getElem_cons_succ]
  refine ⟨?_,?_,?_,?_,?_⟩
  ·simp only [List.getElem?_cons_succ];exact a
  ·rw [show i*5+1+1+1+1+1+1=i*5+1+1+1+1+1+1 from rfl];simp only [List.getElem?_cons_succ];exact b
  ·rw [show i*5+1+1+1+1+1+2=i*5+2+1+1+1+1+1 by omega];simp only [List.getElem?_cons_succ];exact c
  ·rw [show i*5+1+1+1+1+1+3=i*5+3+1+1+1+1+1 by omega];simp only [List.getElem?_cons_succ];exact d
  ·rw [show i*5+1+1+1+1+1+4=i*5+4+1+1+1+1+1 by omega];simp only [List.getElem?_cons_succ];exact e
structure eC (w:World) (x:Addr) (i:Nat) (q:aY):Prop where
 c0:w.cell? (x.add (i*5))=some (.int .i64 q.t.kind)
 c1:w.cell? (x.add (i*5+1))=some (.string ⟨q.t.name.toArray⟩)
 c2:w.cell? (x.add (i*5+2))=some (.string ⟨q.t.text.toArray⟩)
 c3:w.cell? (x.add (i*5+3))=some (.slice q.ad q.len q.cap)
 c4:w.cell? (x.add (i*5+4))=some (.bool q.t.self)
theorem eC.below {w w':World} {B:Nat} {x:Addr} {i:Nat} {q:aY} (h:eC w x i q) (hb:Below B w w') (hB:w.heap.size≤B):eC w' x i q:=by
 have k:∀{a v},w.cell? a=some v→w'.cell? a=some v:=fun {a v} ha=>(hb.cell (by have:=block_lt_of_cell ha;omega)).trans ha
 exact ⟨k h.c0,k h.c1,k h.c2,k h.c3,k h.c4⟩
theorem oE (x:Addr) (n k:Nat):x.add (n+(k+1))=⟨(x.add n).block,(x.add n).off+(k+1),none⟩:=by
 unfold Addr.add
 by_cases h:n=0
 ·subst h;simp
 ·rw [if_neg h,if_neg (by omega)];simp;omega
theorem eC.asked {w:World} {x:Addr} {i:Nat} {q:aY} (h:eC w x i q):w.cell? (x.add (i*5))=some (.int .i64 q.t.kind)∧w.cell? ⟨(x.add (i*5)).block,(x.add (i*5)).off+1,none⟩=some (.string ⟨q.t.name.toArray⟩)∧w.cell? ⟨(x.add (i*5)).block,(x.add (i*5)).off+2,none⟩=some (.string ⟨q.t.text.toArray⟩)∧w.cell? ⟨(x.add (i*5)).block,(x.add (i*5)).off+3,none⟩=some (.slice q.ad q.len q.cap)∧w.cell? ⟨(x.add (i*5)).block,(x.add (i*5)).off+4,none⟩=some (.bool q.t.self):=
 ⟨h.c0,by rw [←oE x _ 0];exact h.c1,by rw [←oE x _ 1];exact h.c2,by rw [←oE x _ 2];exact h.c3,by rw [←oE x _ 3];exact h.c4⟩
def gr (w:World) (a:Option Addr) (len cap:Nat) (L:List aq):Prop:=
 L.length=len∧len≤cap∧cap≤maxLen∧∀i (h:i<L.length),∃x ad ln cp,a=some x∧eC w x i ⟨L[i],ad,ln,cp⟩∧cf w ad ln cp L[i].attrs
theorem gr.below {w w':World} {B:Nat} {a:Option Addr} {len cap:Nat} {L:List aq} (h:gr w a len cap L) (hb:Below B w w') (hB:w.heap.size≤B):gr w' a len cap L:=by
 refine ⟨h.1,h.2.1,h.2.2.1,fun i hi=>?_⟩
 obtain ⟨x,ad,ln,cp,hx,h1,h2⟩:=h.2.2.2 i hi
 exact ⟨x,ad,ln,cp,hx,h1.below hb hB,h2.below hb hB⟩
def g8 (w:World) (v:Value) (q:aY):Prop:=
 cf w q.ad q.len q.cap q.t.attrs∧(q.t.attrs=[]∨∀k,(Value.slice q.ad q.len q.cap).ownBlock=some k→v.ownBlock≠some k)
def aH (w:World) (base:Nat) (v:Value) (Q:List aY):Prop:=
 w.ownsRow base 33 5 v Q.length (ag Q)∧∀q∈Q,g8 w v q
theorem bK (w:World) (base:Nat):aH w base (.slice none 0 0) []:=⟨World.ownsRow_nil _ _ _ _,fun q h=>by cases h⟩
theorem vD {w w':World} {q:aY} {v:Value} (h:g8 w v q) (hg:w.grownBy w' v.ownBlock):cf w' q.ad q.len q.cap q.t.attrs:=by
 obtain ⟨h1,h2⟩:=h
 rcases h2 with h0|h2
 ·rw [h0] at h1⊢
  exact ⟨h1.1,h1.2.1,h1.2.2.1,fun i hi=>by cases hi⟩
 refine ⟨h1.1,h1.2.1,h1.2.2.1,fun i hi=>?_⟩
 obtain ⟨x,hx,c1,c2⟩:=h1.2.2.2 i hi
 have hb:∀n,(x.add n).block=x.block:=fun n=>by unfold Addr.add;split<;>rfl
 have hne:=h2 x.block (by rw [hx];rfl)
 have hlt:x.block<w.heap.size:=by
  have:=block_lt_of_cell c1
  rwa [hb] at this
 have hc:∀n,w'.cell? (x.add n)=w.cell? (x.add n):=fun n=>World.cell?_of_block (by
  rw [hb];exact hg.block x.block hlt (fun e=>hne e.symm))
 exact ⟨x,hx,by rw [hc];exact c1,by rw [hc];exact c2⟩
theorem aH.app {w w':World} {base:Nat} {v v':Value} {Q R:List aY} (h:aH w base v Q) (hR:∀q∈R,g8 w v q) (hown:w'.ownsRow base 33 5 v' (Q.length+R.length) (ag Q++ag R)) (hg:w.grownBy w' v.ownBlock) (hw:v'.ownBlock=v.ownBlock∨v'.ownBlock=some w.heap.size):aH w' base v' (Q++R):=by
 refine ⟨by rw [List.length_append,←iP];exact hown,fun q hq=>?_⟩
 have hq':g8 w v q:=by
  rcases List.mem_append.1 hq with h1|h1
  ·exact h.2 q h1
  ·exact hR q h1
 refine ⟨vD hq' hg,?_⟩
 rcases hq'.2 with h0|h0
 ·exact .inl h0
 ·by_cases he:q.t.attrs=[]
  ·exact .inl he
  ·refine .inr fun k hk=>?_
   rcases hw with h1|h1
   ·rw [h1];exact h0 k hk
   ·rw [h1]
    obtain ⟨x,hx,c1,-⟩:=hq'.1.2.2.2 0 (List.length_pos_iff.2 he)
    have hlt:=block_lt_of_cell c1
    rw [show (x.add (0*2)).block=x.block by unfold Addr.add;split<;>rfl] at hlt
    rw [hx] at hk
    have:x.block=k:=by simpa [Value.ownBlock] using hk
    intro e
    have:=Option.some.inj e
    omega
theorem aH.below {w w':World} {base:Nat} {v:Value} {Q:List aY} (h:aH w base v Q) (hb:Below w.heap.size w w'):aH w' base v Q:=
 ⟨h.1.kept (row:=none) ⟨hb.os,hb.tape,hb.output,hb.size,fun k hk _=>hb.block k hk⟩ (Classical.em _),fun q hq=>⟨(h.2 q hq).1.below hb (Nat.le_refl _),(h.2 q hq).2⟩⟩
theorem aH.alloc {w:World} {base:Nat} {v:Value} {Q:List aY} (h:aH w base v Q) (o:Obj):aH (w.alloc o) base v Q:=h.below ((Below.refl _ w).alloc (Nat.le_refl _) o)
theorem aH.lt {w:World} {base:Nat} {v:Value} {Q:List aY} (h:aH w base v Q):∀k,v.ownBlock=some k→base≤k∧k<w.heap.size:=h.1.lt
theorem aH.told {w:World} {base:Nat} {v:Value} {Q:List aY} (h:aH w base v Q):∃a cap,v= .slice a Q.length cap∧gr w a Q.length cap (Q.map aY.t):=by
 have hc:=fun g hg=>h.1.cells (g:=g) hg
 rcases h.1.2 with ⟨rfl,h0⟩|⟨g,cap,cur,rfl,hb,hg,hn,hm,hs,htake⟩
 ·refine ⟨none,0,by rw [h0],by simp,by omega,by simp [maxLen],fun i hi=>?_⟩
  rw [List.length_map] at hi;omega
 ·refine ⟨_,cap,rfl,by simp,hn,hm,fun i hi=>?_⟩
  have hi':i<Q.length:=by simpa using hi
  obtain ⟨e0,e1,e2,e3,e4⟩:=iz Q i hi'
  refine ⟨_,Q[i].ad,Q[i].len,Q[i].cap,rfl,⟨?_,?_,?_,?_,?_⟩,?_⟩
  all_goals simp only [List.getElem_map]
  ·exact hc g rfl _ _ e0
  ·exact hc g rfl _ _ e1
  ·exact hc g rfl _ _ e2
  ·exact hc g rfl _ _ e3
  ·exact hc g rfl _ _ e4
  ·exact (h.2 Q[i] (List.getElem_mem hi')).1
theorem dc {w W w1:World} {base:Nat} {v v1:Value} {Q:List aY} {q:aY} (h:aH W base v Q) (hq:g8 W v q) (hb:Below w.heap.size w W) (hbase:w.heap.size≤base) (hown:w1.ownsRow base 33 5 v1 (Q.length+1) (ag Q++ag [q])) (hg:W.grownBy w1 v.ownBlock) (hw:v1.ownBlock=v.ownBlock∨v1.ownBlock=some W.heap.size):aH w1 base v1 (Q++[q])∧Below w.heap.size w w1:=
 ⟨h.app (R:=[q]) (fun r hr=>by
  simp only [List.mem_cons,List.not_mem_nil,or_false] at hr
  subst hr;exact hq) hown hg hw,hb.grown hg hb.size (fun k hk=>Nat.le_trans hbase (h.lt k hk).1)⟩
theorem nA (w:World) (v:Value) (x:ab):g8 w v ⟨⟨0,[],x,[],false⟩,none,0,0⟩:=⟨⟨rfl,Nat.le_refl _,by simp [maxLen],fun i hi=>by cases hi⟩,.inl rfl⟩
theorem iA {w w1:World} {base:Nat} {v:Value} {Q:List aY} {q:aY} (h:aH w base v Q) (hr:cf w1 q.ad q.len q.cap q.t.attrs) (hf:q.t.attrs=[]∨∀k,(Value.slice q.ad q.len q.cap).ownBlock=some k→w.heap.size≤k):g8 w1 v q:=by
 refine ⟨hr,?_⟩
 rcases hf with h0|h0
 ·exact .inl h0
 ·refine .inr fun k hk e=>?_
  have:=(h.lt k e).2
  have:=h0 k hk
  omega
theorem g8.below {w w':World} {v:Value} {q:aY} (h:g8 w v q) (hb:Below w.heap.size w w'):g8 w' v q:=⟨h.1.below hb (Nat.le_refl _),h.2⟩
theorem aH.base {w:World} {base base':Nat} {v:Value} {Q:List aY} (h:aH w base v Q) (hb:base'≤base):aH w base' v Q:=by
 refine ⟨⟨h.1.1,?_⟩,h.2⟩
 rcases h.1.2 with h0|⟨g,cap,cur,h1,h2,h3⟩
 ·exact .inl h0
 ·exact .inr ⟨g,cap,cur,h1,Nat.le_trans hb h2,h3⟩
theorem gL:(Tryz.prog.info? 33).map (fun i=>(i.zero,i.size,i.bytes))=some (some (.agg #[.int .i64 0,.string ⟨#[]⟩,.string ⟨#[]⟩,.slice none 0 0,.bool false]),5,72):=by kernel_rfl
theorem sy (wr:World) (q:aY) (e:TypeId):∀(j:Nat) (u:Value),(ag [q])[j]? =some u→(wr.alloc (.cells q.five.toArray e)).cell? ((⟨wr.heap.size,0,none⟩:Addr).add j)=some u:=by
 intro j u hj
 have e1:(⟨wr.heap.size,0,none⟩:Addr).add j=⟨wr.heap.size,j,none⟩:=by simp [Addr.add];omega
 rw [e1,cell_of_row _ _ _ _ _ _ (heap_alloc_new wr _),bt] at*
 simpa using hj
theorem bW (wr:World) (q:aY) (e:TypeId) (g:Nat) (hg:wr.heap.size=g):∀(j:Nat) (u:Value),(ag [q])[j]? =some u→(wr.alloc (.cells q.five.toArray e)).cell? ((⟨g,0,none⟩:Addr).add j)=some u:=by
 subst hg;exact sy wr q e
theorem dl (q:aY):∀u∈ag [q],u.oneCell'=true:=by
 intro u hu
 rw [bt] at hu
 simp [aY.five] at hu
 rcases hu with rfl|rfl|rfl|rfl|rfl<;>rfl
theorem mr (Q:List aY):∀u∈ag Q,u.oneCell'=true:=by
 intro u hu
 unfold ag at hu
 obtain ⟨q,-,hq⟩:=List.mem_flatMap.1 hu
 simp [aY.five] at hq
 rcases hq with rfl|rfl|rfl|rfl|rfl<;>rfl
end Go.Proofs.YtajpoodpbbbkfaaGreatDoor
namespace Go.Proofs.YtajpoodpbbbkfaaGreatDoor
open Go.RowKit Go.Lib
end Go.Proofs.YtajpoodpbbbkfaaGreatDoor
namespace Go.Proofs.YtajpoodpbbbkfaaGreatDoor
open Go.RowKit Go.Lib
def d9 (x:ab):aq:=⟨0,[],x,[],false⟩
noncomputable def nx (l : ab) : aq × Nat × Bool :=
  if aV l ≠ 0 then (match gR l with | none => (aJ, l.length, false) | some (t, n) => (t, n, true))
  else if gc l = true then (iY (fB l).1, (fB l).2, true)
  else if kY l = true then (ui ((l.drop 9).takeWhile (· != 62)), (if cw (· != 62) l 9 < l.length then cw (· != 62) l 9 + 1 else l.length), true)
  else if oz l = true then (aJ, 3, false)
  else if bJ l = 0 then (aJ, 0, false)
  else (d9 (dQ false (l.take (bJ l))), bJ l, true)
noncomputable def BR (s:ab) (a:Int):aq × Int × Bool:=((nx (s.drop (jv s a))).1,((jv s a+(nx (s.drop (jv s a))).2.1:Nat):Int),(nx (s.drop (jv s a))).2.2)
def aQ (says:ab):List aq:=if says=[] then [] else [d9 says]
def cE (says:ab):List aq→List aq
 |[]=>aQ says
 |t::L=>if t.kind=0 then cE (says++t.text) L else aQ says++t::cE [] L
def bX (L:List aq):List aq:=cE [] L
def aG (st:Int) (nm l:ab):Nat:=if st=1∨st=2 then fs nm l else if st=3 then (dg 0 0 l).1 else l.length
noncomputable def fb (st:Int) (nm l:ab):ab:=kF (decide (st=1)) (l.take (aG st nm l))
noncomputable def c9 (st:Int) (nm l:ab):List aq × Nat:=
 if 1≤st∧st≤4 then
  (if aG st nm l=l.length then (aQ (fb st nm l),l.length) else if aV (l.drop (aG st nm l))≠0 then (match gR (l.drop (aG st nm l)) with
   |none=>(aQ (fb st nm l),l.length)
   |some (t,n)=>(aQ (fb st nm l)++[t],aG st nm l+n)) else (aQ (fb st nm l),aG st nm l))
 else ([],0)
noncomputable def ge (st:Int) (nm s:ab) (a:Int):List aq × Nat:=((c9 st nm (s.drop (jv s a))).1,jv s a+(c9 st nm (s.drop (jv s a))).2)
theorem Om (l:ab) (h:aV l≠0):nx l=(match gR l with|none=>(aJ,l.length,false)|some (t,n)=>(t,n,true)):=by
 unfold nx;rw [if_pos h]
theorem fc (l : ab) : (aV l ≠ 0 ∧ gR l = none ∧ nx l = (aJ, l.length, false)) ∨ (aV l ≠ 0 ∧ ∃ t n, gR l = some (t, n) ∧ nx l = (t, n, true)) ∨
    (aV l = 0 ∧ gc l = true ∧ nx l = (iY (fB l).1, (fB l).2, true)) ∨
    (aV l = 0 ∧ gc l = false ∧ kY l = true ∧ nx l = (ui ((l.drop 9).takeWhile (· != 62)), (if cw (· != 62) l 9 < l.length then cw (· != 62) l 9 + 1 else l.length), true)) ∨
    (aV l = 0 ∧ gc l = false ∧ kY l = false ∧ oz l = true ∧ nx l = (aJ, 3, false)) ∨
    (aV l = 0 ∧ gc l = false ∧ kY l = false ∧ oz l = false ∧ q9 l = false ∧ bJ l = 0 ∧ l = [] ∧ nx l = (aJ, 0, false)) ∨
    (aV l = 0 ∧ gc l = false ∧ kY l = false ∧ oz l = false ∧ q9 l = false ∧ 1 ≤ bJ l ∧ nx l = (d9 (dQ false (l.take (bJ l))), bJ l, true)) := by
  by_cases hT : aV l = 0
  · have e1 : nx l = (if gc l = true then (iY (fB l).1, (fB l).2, true) else if kY l = true then (ui ((l.drop 9).takeWhile (· != 62)), (if cw (· != 62) l 9 < l.length then cw (· != 62) l 9 + 1 else l.length), true) else if oz l = true then (aJ, 3, false) else if bJ l = 0 then (aJ, 0, false) else (d9 (dQ false (l.take (bJ l))), bJ l, true)) := by
      unfold nx; rw [if_neg (by rw [hT]; decide)]
    cases hC : gc l
    · rw [hC, if_neg Bool.false_ne_true] at e1
      cases hD : kY l
      · rw [hD, if_neg Bool.false_ne_true] at e1
        cases hE : oz l
        · rw [hE, if_neg Bool.false_ne_true] at e1
          have hm : q9 l = false := by unfold q9; rw [hC, hD, hE, hT]; rfl
          by_cases hN : bJ l = 0
          · rw [if_pos hN] at e1
            have hl : l = [] := by
              cases l with
              | nil => rfl
              | cons c t => rw [bJ, hm, if_neg Bool.false_ne_true] at hN; omega
            exact .inr (.inr (.inr (.inr (.inr (.inl ⟨hT, rfl, rfl, rfl, hm, hN, hl, e1⟩)))))
          · rw [if_neg hN] at e1
            exact .inr (.inr (.inr (.inr (.inr (.inr ⟨hT, rfl, rfl, rfl, hm, by omega, e1⟩)))))
        · rw [hE, if_pos rfl] at e1
          exact .inr (.inr (.inr (.inr (.inl ⟨hT, rfl, rfl, rfl, e1⟩))))
      · rw [hD, if_pos rfl] at e1
        exact .inr (.inr (.inr (.inl ⟨hT, rfl, rfl, e1⟩)))
    · rw [hC, if_pos rfl] at e1
      exact .inr (.inr (.inl ⟨hT, rfl, e1⟩))
  · have e1 := Om l hT
    cases hr : gR l with
    | none => rw [hr] at e1; exact .inl ⟨hT, rfl, e1⟩
    | some r => obtain ⟨t, n⟩ := r; rw [hr] at e1; exact .inr (.inl ⟨hT, t, n, rfl, e1⟩)
theorem IN (l:ab):(nx l).2.1≤l.length∧(l≠[]→1≤(nx l).2.1):=by
 have hlen:l≠[]→1≤l.length:=fun h=>List.length_pos_iff.2 h
 rcases fc l with ⟨h,-,e⟩|⟨h,t,n,hr,e⟩|⟨-,h,e⟩|⟨-,-,h,e⟩|⟨-,-,-,h,e⟩|⟨-,-,-,-,-,-,h,e⟩|⟨-,-,-,-,-,h,e⟩
 all_goals rw [e];simp only
 ·exact ⟨Nat.le_refl _,hlen⟩
 ·obtain ⟨h1,h2,-⟩:=eB l t n hr
  exact ⟨h2,fun _=>by omega⟩
 ·have:=pR l [] h
  exact ⟨this.2.1,fun _=>by omega⟩
 ·have:=zz l h
  split
  ·exact ⟨by omega,fun _=>by omega⟩
  ·exact ⟨Nat.le_refl _,hlen⟩
 ·have:=(List.isPrefixOf_iff_prefix.1 h).length_le
  exact ⟨this,fun _=>by omega⟩
 ·subst h;exact ⟨Nat.zero_le _,fun h=>absurd rfl h⟩
 ·exact ⟨xl l,fun _=>h⟩
theorem vE (t:aq) (L:List aq) (h:t.kind≠0):bX (t::L)=t::bX L:=by
 unfold bX;rw [cE,if_neg h];rfl
inductive sA:List aq→Prop
 |nil:sA []
 |mark (t:aq) (L:List aq):t.kind≠0→sA L→sA (t::L)
 |text (x:ab) (L:List aq):x≠[]→sA L→(∀t,L.head?=some t→t.kind≠0)→sA (d9 x::L)
theorem BS (p:UInt8→Bool) (s:ab) (k i:Nat):cw p s (k+i)=k+cw p (s.drop k) i:=by
 unfold cw;rw [List.drop_drop];omega
theorem vF (s:ab) (a:Int):BR s a=BR s ((jv s a:Nat):Int):=by
 unfold BR;rw [gT s _ (gS s a)]
theorem vH (s:ab) (a:Int):(kX s a).1.attrs=[]:=by unfold kX;split<;>rfl
theorem vI (s:ab) (a:Int):(q8 s a).1.attrs=[]:=by unfold q8;split<;>rfl
theorem DW (s:ab) (k:Nat) (hk:k≤s.length):(gJ s (k:Int)=true∧BR s (k:Int)=pP s (k:Int))∨(gJ s (k:Int)=false∧ee s (k:Int)=true∧BR s (k:Int)=kX s (k:Int))∨(gJ s (k:Int)=false∧ee s (k:Int)=false∧dV s (k:Int)=true∧BR s (k:Int)=q8 s (k:Int))∨(gJ s (k:Int)=false∧ee s (k:Int)=false∧dV s (k:Int)=false∧jM s (k:Int)=true∧BR s (k:Int)=(aJ,(k:Int)+3,false))∨(gJ s (k:Int)=false∧ee s (k:Int)=false∧dV s (k:Int)=false∧jM s (k:Int)=false∧bz s (k:Int)=k∧BR s (k:Int)=(aJ,(k:Int),false))∨(gJ s (k:Int)=false∧ee s (k:Int)=false∧dV s (k:Int)=false∧jM s (k:Int)=false∧k<bz s (k:Int)∧BR s (k:Int)=(d9 (uj s (k:Int)),(bz s (k:Int):Int),true)):=by
 have hn:BR s (k:Int)=((nx (s.drop k)).1,((k+(nx (s.drop k)).2.1:Nat):Int),(nx (s.drop k)).2.2):=by
  unfold BR;rw [gT s k hk]
 have he:jM s (k:Int)=oz (s.drop k):=by
  unfold jM
  rw [show decide (0≤(k:Int))=true from decide_eq_true (by omega),Bool.true_and,show ((k:Nat):Int).toNat=k by omega]
 have hx:bz s (k:Int)=k+bJ (s.drop k):=by unfold bz;rw [gT s k hk]
 have hd:(s.drop k).length=s.length-k:=List.length_drop
 rw [IB,mn,rA,he,hx,hn]
 rcases fc (s.drop k) with ⟨h,hr,e⟩|⟨h,t,n,hr,e⟩|⟨h0,h,e⟩|⟨h0,h1,h,e⟩|⟨h0,h1,h2,h,e⟩|⟨h0,h1,h2,h3,-,hN,h,e⟩|⟨h0,h1,h2,h3,-,h,e⟩
 all_goals rw [e]
 ·refine .inl ⟨decide_eq_true h,?_⟩
  rw [sr s k h hr,hd]
  simp only [Prod.mk.injEq,true_and,and_true];omega
 ·exact .inl ⟨decide_eq_true h,by rw [ss s k h t n hr]⟩
 ·exact .inr (.inl ⟨by rw [h0];rfl,h,by rw [BI s k h]⟩)
 ·refine .inr (.inr (.inl ⟨by rw [h0];rfl,h1,h,?_⟩))
  rw [BN s k h,BS,List.drop_drop,hd]
  simp only [Prod.mk.injEq,true_and,and_true]
  split<;>split<;>omega
 ·exact .inr (.inr (.inr (.inl ⟨by rw [h0];rfl,h1,h2,h,by simp only [Prod.mk.injEq,true_and,and_true];omega⟩)))
 ·exact .inr (.inr (.inr (.inr (.inl ⟨by rw [h0];rfl,h1,h2,h3,by omega,by simp only [Prod.mk.injEq,true_and,and_true];omega⟩))))
 ·refine .inr (.inr (.inr (.inr (.inr ⟨by rw [h0];rfl,h1,h2,h3,by omega,?_⟩))))
  unfold uj
  rw [gT s k hk]
theorem xo (l : ab) : (nx l).1.text.length ≤ 3 * (l.length + 1) := by
  rcases fc l with ⟨h, -, e⟩ | ⟨h, t, n, hr, e⟩ | ⟨-, h, e⟩ | ⟨-, -, h, e⟩ | ⟨-, -, -, h, e⟩ | ⟨-, -, -, -, -, -, h, e⟩ | ⟨-, -, -, -, -, h, e⟩
  all_goals rw [e]; simp only
  · simp [aJ]
  · obtain ⟨-, -, -, al, self, ht, -⟩ := eB l t n hr
    rw [ht]; unfold xk
    split <;> simp
  · have h1 := (pR l [] h).2.2.1
    have h2 := (er (fB l).1).2
    show (ap (fB l).1).length ≤ _
    omega
  · have h1 := (List.takeWhile_sublist (l := l.drop 9) (· != 62)).length_le
    have h2 := (er ((l.drop 9).takeWhile (· != 62))).2
    rw [List.length_drop] at h1
    show (ap ((l.drop 9).takeWhile (· != 62))).length ≤ _
    omega
  · simp [aJ]
  · simp [aJ]
  · have h2 := lx false _ (l.take (bJ l)) (Nat.le_refl _)
    rw [List.length_take] at h2
    show (dQ false (l.take (bJ l))).length ≤ _
    omega
theorem Fq (st:Int) (nm l:ab):(fb st nm l).length≤9*l.length:=by
 unfold fb kF
 have h1:(l.take (aG st nm l)).length≤l.length:=by rw [List.length_take];omega
 split
 ·have h2:=(er (dQ false (l.take (aG st nm l)))).2
  have h3:=lx false _ (l.take (aG st nm l)) (Nat.le_refl _)
  omega
 ·have h2:=(er (l.take (aG st nm l))).2
  omega
theorem oF (st:Int) (nm l:ab):aG st nm l≤l.length:=by
 unfold aG
 split
 ·exact (oC nm l).1
 ·split
  ·exact (BQ 0 0 l (by decide)).1
  ·exact Nat.le_refl _
theorem pS (st:Int) (nm s:ab) (k:Nat) (hk:k≤s.length) (hst:1≤st∧st≤4):k+aG st nm (s.drop k)≤s.length∧(k+aG st nm (s.drop k)=s.length→ge st nm s (k:Int)=(aQ (fb st nm (s.drop k)),k+aG st nm (s.drop k)))∧(k+aG st nm (s.drop k)<s.length→∀t n ok,pP s ((k+aG st nm (s.drop k):Nat):Int)=(t,n,ok)→(ge st nm s (k:Int)).1=aQ (fb st nm (s.drop k))++(if ok=true then [t] else [])∧((ge st nm s (k:Int)).2:Int)=n):=by
 have hle:=oF st nm (s.drop k)
 rw [List.length_drop] at hle
 have hd:(s.drop k).length=s.length-k:=List.length_drop
 have hr:ge st nm s (k:Int)=((c9 st nm (s.drop k)).1,k+(c9 st nm (s.drop k)).2):=by unfold ge;rw [gT s k hk]
 rw [hr]
 unfold c9
 rw [if_pos hst]
 refine ⟨by omega,fun h=>?_,fun h t n ok ht=>?_⟩
 ·rw [if_pos (by omega)]
  simp only [Prod.mk.injEq,true_and];omega
 ·rw [if_neg (by omega)]
  have hdd:(s.drop k).drop (aG st nm (s.drop k))=s.drop (k+aG st nm (s.drop k)):=List.drop_drop
  rw [hdd]
  by_cases hb:aV (s.drop (k+aG st nm (s.drop k)))=0
  ·rw [if_neg (by rw [hb];decide)]
   rw [(ow s _ (fun h=>by
    rw [show (((k+aG st nm (s.drop k):Nat):Int)).toNat=k+aG st nm (s.drop k) by omega] at h
    exact h.2 hb)).1] at ht
   simp only [Prod.mk.injEq] at ht
   obtain ⟨-,rfl,rfl⟩:=ht
   exact ⟨by simp,rfl⟩
  ·rw [if_pos hb]
   cases hx:gR (s.drop (k+aG st nm (s.drop k))) with
   |none=>
    rw [sr s _ hb hx] at ht
    simp only [Prod.mk.injEq] at ht
    obtain ⟨-,rfl,rfl⟩:=ht
    exact ⟨by simp,by simp only;omega⟩
   |some r=>
    obtain ⟨u,m⟩:=r
    rw [ss s _ hb u m hx] at ht
    simp only [Prod.mk.injEq] at ht
    obtain ⟨rfl,rfl,rfl⟩:=ht
    exact ⟨by simp,by simp only;omega⟩
theorem vJ (st:Int) (nm s:ab) (k:Nat) (hk:k≤s.length) (hst:¬(1≤st∧st≤4)):ge st nm s (k:Int)=([],k):=by
 unfold ge c9
 rw [gT s k hk,if_neg hst];rfl
theorem qG (st:Int) (nm s:ab) (a:Int):ge st nm s a=ge st nm s ((jv s a:Nat):Int):=by
 unfold ge;rw [gT s _ (gS s a)]
theorem ms (x:ab) (t:aq) (h:t∈aQ x):t.text=x:=by
 unfold aQ at h
 split at h
 ·cases h
 ·simp only [List.mem_cons,List.not_mem_nil,or_false] at h
  rw [h];rfl
theorem sB (l:ab) (t:aq) (n:Nat) (hr:gR l=some (t,n)):t.text=[]:=by
 obtain ⟨-,-,-,al,self,ht,-⟩:=eB l t n hr
 rw [ht];unfold xk
 split<;>rfl
theorem rC (st:Int) (nm l:ab):(c9 st nm l).2≤l.length∧∀t∈(c9 st nm l).1,t.text.length≤9*l.length:=by
 have h0:=oF st nm l
 have hs:=Fq st nm l
 have he:∀t∈aQ (fb st nm l),t.text.length≤9*l.length:=fun t h=>by rw [ms _ _ h];exact hs
 unfold c9
 split
 ·split
  ·exact ⟨Nat.le_refl _,he⟩
  ·split
   ·cases hr:gR (l.drop (aG st nm l)) with
    |none=>exact ⟨Nat.le_refl _,he⟩
    |some r=>
     obtain ⟨t,n⟩:=r
     obtain ⟨-,h2,-⟩:=eB _ t n hr
     rw [List.length_drop] at h2
     refine ⟨by simp only;omega,fun u hu=>?_⟩
     rcases List.mem_append.1 hu with h3|h3
     ·exact he u h3
     ·simp only [List.mem_cons,List.not_mem_nil,or_false] at h3
      rw [h3,sB _ _ _ hr];simp
   ·exact ⟨h0,he⟩
 ·exact ⟨Nat.zero_le _,fun t h=>by cases h⟩
theorem IO (s:ab) (k:Nat) (hk:k≤s.length):BR s (k:Int)=((nx (s.drop k)).1,((k+(nx (s.drop k)).2.1:Nat):Int),(nx (s.drop k)).2.2):=by
 unfold BR;rw [gT s k hk]
end Go.Proofs.YtajpoodpbbbkfaaGreatDoor
namespace Go.Proofs.YtajpoodpbbbkfaaGreatDoor
open Go.RowKit Go.Lib
theorem LN (l:ab) (h:l≠[]):dQ false l≠[]:=by
 cases l with
 |nil=>exact absurd rfl h
 |cons c l=>
  by_cases hc:c=38
  ·rw [hc,kz]
   intro e
   have:=(lw l false).1
   rw [(List.append_eq_nil_iff.1 e).1] at this
   simp at this
  ·rw [iO false c l hc];simp
theorem IP (a z:ab) (ha:a≠[]) (h:60∉a) (hz:bJ z=0):nx (a++z)=(d9 (dQ false a),a.length,true):=by
 have hn:=vx a z h
 rw [hz,Nat.add_zero] at hn
 have hm:q9 (a++z)=false:=by
  rw [Bool.eq_false_iff];intro e
  obtain ⟨t,e⟩:=rB _ e
  cases a with
  |nil=>exact ha rfl
  |cons c a=>
   rw [List.mem_cons,not_or] at h
   exact h.1 (List.cons.inj e).1.symm
 have hlen:=List.length_pos_iff.2 ha
 unfold q9 at hm
 simp only [Bool.or_eq_false_iff,decide_eq_false_iff_not,Classical.not_not] at hm
 obtain ⟨⟨⟨h1,h2⟩,h3⟩,h4⟩:=hm
 rcases fc (a++z) with ⟨h,-,e⟩|⟨h,t,n,hr,e⟩|⟨-,h,e⟩|⟨-,-,h,e⟩|⟨-,-,-,h,e⟩|⟨-,-,-,-,-,-,h,e⟩|⟨-,-,-,-,-,h,e⟩
 ·exact absurd h1 h
 ·exact absurd h1 h
 ·rw [h2] at h;cases h
 ·rw [h3] at h;cases h
 ·rw [h4] at h;cases h
 ·exact absurd (List.append_eq_nil_iff.1 h).1 ha
 ·rw [e,hn,List.take_left]
theorem zI (x:ab) (h:x≠[]):aQ x=[d9 x]:=by unfold aQ;rw [if_neg h]
structure PO (t:aq):Prop where
 kinds:t.kind=0∨t.kind=1∨t.kind=2∨t.kind=3∨t.kind=4
 text:t.kind=0→t.text≠[]∧t.name=[]
 tag:t.kind=1∨t.kind=2→t.text=[]∧∃d r,t.name=d::r∧97≤d.toNat∧d.toNat≤122
 rest:t.kind=3∨t.kind=4→t.name=[]∧t.attrs=[]
theorem oG (x:ab):(aQ x).length≤1:=by
 unfold aQ;split<;>simp
theorem pT:∀(L:List aq) (says:ab),(cE says L).length≤L.length+(aQ says).length
 |[],says=>by unfold cE;omega
 |t::L,says=>by
  unfold cE
  split
  ·have h1:=pT L (says++t.text)
   have h2:=oG (says++t.text)
   rw [List.length_cons];omega
  ·have h1:=pT L []
   rw [List.length_append,List.length_cons,List.length_cons]
   have h2:(aQ []).length=0:=rfl
   omega
theorem IQ (L:List aq):(bX L).length≤L.length:=by
 have h:=pT L []
 have h2:(aQ []).length=0:=rfl
 unfold bX;omega
end Go.Proofs.YtajpoodpbbbkfaaGreatDoor
namespace Go.Proofs.YtajpoodpbbbkfaaGreatDoor
open Go.RowKit Go.Lib
def jO (t:aq):Prop:=t.kind=0→t.name=[]∧t.attrs=[]∧t.self=false
end Go.Proofs.YtajpoodpbbbkfaaGreatDoor
namespace Go.Proofs.YtajpoodpbbbkfaaGreatDoor
open Go.RowKit Go.Lib
def dM (t:aq):Bool:=decide (t.kind=0)&&decide (t.text=[])
def dm:List aq→Nat × ab
 |[]=>(0,[])
 |t::L=>if t.kind=0 then ((dm L).1+1,t.text++(dm L).2) else (0,[])
theorem kG (t:aq) (L:List aq) (h:t.kind=0):dm (t::L)=((dm L).1+1,t.text++(dm L).2):=if_pos h
theorem sC (t:aq) (L:List aq) (h:t.kind≠0):dm (t::L)=(0,[]):=if_neg h
theorem zJ:∀L:List aq,(dm L).1≤L.length
 |[]=>Nat.le_refl _
 |t::L=>by
  have:=zJ L
  unfold dm
  split
  ·simp only [List.length_cons];omega
  ·exact Nat.zero_le _
theorem oI:∀(L:List aq) (says:ab),cE says (L.filter fun t=> !dM t)=cE says L
 |[],_=>rfl
 |t::L,says=>by
  cases hs:dM t
  ·rw [List.filter_cons_of_pos (by rw [hs];rfl)]
   unfold cE
   rw [oI L (says++t.text),oI L []]
  ·rw [List.filter_cons_of_neg (by rw [hs];decide),oI L says]
   have h:t.kind=0∧t.text=[]:=by simpa [dM] using hs
   conv=>rhs;unfold cE
   rw [if_pos h.1,h.2,List.append_nil]
theorem sE:∀(L:List aq) (says:ab),cE says L=aQ (says++(dm L).2)++bX (L.drop (dm L).1)
 |[],says=>by simp [cE,dm,bX,aQ]
 |t::L,says=>by
  by_cases h:t.kind=0
  ·rw [kG t L h]
   unfold cE
   rw [if_pos h,sE L (says++t.text),List.append_assoc,List.drop_succ_cons]
  ·rw [sC t L h,List.append_nil,List.drop_zero,vE t L h]
   unfold cE
   rw [if_neg h];rfl
theorem BT (t:aq) (L:List aq) (h:t.kind=0) (hs:dM t=false):bX (t::L)=d9 (dm (t::L)).2::bX ((t::L).drop (dm (t::L)).1):=by
 have hx:t.text≠[]:=fun e=>by simp [dM,h,e] at hs
 have h1:=sE (t::L) []
 have h2:(dm (t::L)).2≠[]:=by
  rw [kG t L h]
  exact fun e=>hx (List.append_eq_nil_iff.1 e).1
 show cE [] (t::L)=_
 rw [h1,List.nil_append]
 unfold aQ
 rw [if_neg h2];rfl
theorem BU (L:List aq) (i:Nat) (h:i<L.length) (hk:L[i].kind=0):dm (L.drop i)=((dm (L.drop (i+1))).1+1,L[i].text++(dm (L.drop (i+1))).2):=by
 rw [←List.getElem_cons_drop h];exact kG _ _ hk
theorem BV (L:List aq) (i:Nat) (h:i<L.length) (hk:L[i].kind≠0):dm (L.drop i)=(0,[]):=by
 rw [←List.getElem_cons_drop h];exact sC _ _ hk
theorem Fr (t:aq) (L:List aq) (h:t.kind=0):1≤(dm (t::L)).1:=by rw [kG t L h];simp
theorem zK (x:ab):jO (d9 x):=fun _=>⟨rfl,rfl,rfl⟩
theorem mu (x:ab):∀t∈aQ x,jO t:=fun t h=>by
 unfold aQ at h
 split at h
 ·cases h
 ·simp only [List.mem_cons,List.not_mem_nil,or_false] at h
  rw [h];exact zK x
theorem zL (l:ab) (t:aq) (n:Nat) (hr:gR l=some (t,n)):jO t:=by
 obtain ⟨-,-,-,al,self,ht,-⟩:=eB l t n hr
 rw [ht];unfold xk
 split<;>intro h<;>cases h
theorem LO (l:ab):jO (nx l).1:=by
 rcases fc l with ⟨h,-,e⟩|⟨h,t,n,hr,e⟩|⟨-,h,e⟩|⟨-,-,h,e⟩|⟨-,-,-,h,e⟩|⟨-,-,-,-,-,-,h,e⟩|⟨-,-,-,-,-,h,e⟩
 all_goals rw [e];simp only
 ·exact fun _=>⟨rfl,rfl,rfl⟩
 ·exact zL l t n hr
 ·intro h;cases h
 ·intro h;cases h
 ·exact fun _=>⟨rfl,rfl,rfl⟩
 ·exact fun _=>⟨rfl,rfl,rfl⟩
 ·exact zK _
theorem Fs (st:Int) (nm l:ab):∀t∈(c9 st nm l).1,jO t:=by
 intro t h
 unfold c9 at h
 split at h
 ·split at h
  ·exact mu _ t h
  ·split at h
   ·cases hr:gR (l.drop (aG st nm l)) with
    |none=>rw [hr] at h;exact mu _ t h
    |some r=>
     obtain ⟨u,n⟩:=r
     rw [hr] at h
     rcases List.mem_append.1 h with h1|h1
     ·exact mu _ t h1
     ·simp only [List.mem_cons,List.not_mem_nil,or_false] at h1
      rw [h1];exact zL _ u n hr
   ·exact mu _ t h
 ·cases h
structure oJ (L D:List aY) (j i:Nat):Prop where
 len:D.length=L.length
 ij:i<j
 jl:j≤L.length
 low:D.take i=(L.take j).filter fun q=> !dM q.t
 high:D.drop j=L.drop j
theorem oJ.get {L D:List aY} {j i:Nat} (h:oJ L D j i) (hj:j<L.length):D[j]'(by rw [h.len];exact hj)=L[j]:=by
 have h1:=congrArg (fun l=>l[0]?) h.high
 simp only [List.getElem?_drop,Nat.add_zero] at h1
 rw [List.getElem?_eq_getElem (by rw [h.len];exact hj),List.getElem?_eq_getElem hj] at h1
 exact Option.some.inj h1
theorem oJ.keep {L D:List aY} {j i:Nat} (h:oJ L D j i) (hj:j<L.length) (hk:dM L[j].t=false):oJ L (D.set i L[j]) (j+1) (i+1):=by
 have hlen:=h.len
 have hij:=h.ij
 refine ⟨by rw [List.length_set];exact h.len,by omega,hj,?_,?_⟩
 ·rw [List.take_succ_eq_append_getElem (by rw [List.length_set];omega),List.take_set_of_le (Nat.le_refl _),List.getElem_set_self,h.low,List.take_succ_eq_append_getElem hj,List.filter_append]
  simp [hk]
 ·rw [List.drop_set_of_lt (by omega),←List.drop_drop,h.high,List.drop_drop]
theorem oJ.skip {L D:List aY} {j i:Nat} (h:oJ L D j i) (hj:j<L.length) (hk:dM L[j].t=true):oJ L D (j+1) i:=by
 have hij:=h.ij
 refine ⟨h.len,by omega,hj,?_,?_⟩
 ·rw [h.low,List.take_succ_eq_append_getElem hj,List.filter_append]
  simp [hk]
 ·rw [←List.drop_drop,h.high,List.drop_drop]
theorem qH {L:List aY} {k:Nat} (h:∀j (hj:j<L.length),j<k→dM L[j].t=false) (hk:k≤L.length):(L.take k).filter (fun q=> !dM q.t)=L.take k:=by
 refine List.filter_eq_self.2 fun q hq=>?_
 obtain ⟨j,hj,rfl⟩:=List.getElem_of_mem hq
 rw [List.length_take] at hj
 rw [List.getElem_take,h j (by omega) (by omega)];rfl
theorem oJ.start {L:List aY} {k:Nat} (h:∀j (hj:j<L.length),j<k→dM L[j].t=false) (hk:k<L.length) (hs:dM L[k].t=true):oJ L L (k+1) k:=by
 refine ⟨rfl,by omega,hk,?_,rfl⟩
 rw [List.take_succ_eq_append_getElem hk,List.filter_append,qH h (by omega)]
 simp [hs]
theorem oJ.done {L D:List aY} {i:Nat} (h:oJ L D L.length i):D.take i=L.filter fun q=> !dM q.t:=by
 have:=h.low
 rwa [List.take_length] at this
theorem IR (L:List aY):(L.filter fun q=> !dM q.t).map aY.t=(L.map aY.t).filter fun t=> !dM t:=by
 induction L with
 |nil=>rfl
 |cons q L ih=>
  rw [List.map_cons]
  by_cases h:dM q.t=true
  ·rw [List.filter_cons_of_neg (by rw [h];decide),List.filter_cons_of_neg (by rw [h];decide)];exact ih
  ·rw [List.filter_cons_of_pos (by simpa using h),List.filter_cons_of_pos (by simpa using h),List.map_cons,ih]
end Go.Proofs.YtajpoodpbbbkfaaGreatDoor
