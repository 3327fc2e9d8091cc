/-
  Texts laid together: DrvMath, DrvName, DrvMap, DrvRef.
-/
import Derived.Test.YtpmdcppnlggckaaGreatDoorQB
import Derived.Maps.OwnSet
import Derived.Maps.Views
import Derived.Test.YtpmdcppnlggckaaGreatDoorP6
import Derived.ProofKit
import Derived.WalkKit
import Derived.Test.YtpmdcppnlggckaaGreatDoorQH
import Derived.Test.YtpmdcppnlggckaaGreatDoorTkRow
import Derived.Deep.RegionHeld3
set_option maxHeartbeats 4000000
set_option maxRecDepth 100000
namespace Go.Proofs.YtpmdcppnlggckaaGreatDoor
open Go.RowKit Go.Lib
def dL:List (ab × Int):=[([116,105,116,108,101],1),([116,101,120,116,97,114,101,97],1),([115,116,121,108,101],2),([120,109,112],2),([105,102,114,97,109,101],2),([110,111,101,109,98,101,100],2),([110,111,102,114,97,109,101,115],2),([110,111,115,99,114,105,112,116],2),([115,99,114,105,112,116],3),([112,108,97,105,110,116,101,120,116],4)]
def dh (nm:ab):Int:=((dL.find? fun p=>decide (p.1=nm)).map Prod.snd).getD 0
theorem m0 (nm:ab):(∃p∈dL,p.1=nm∧dh nm=p.2)∨((∀p∈dL,p.1≠nm)∧dh nm=0):=by
 unfold dh
 cases h:dL.find? (fun p=>decide (p.1=nm)) with
 |none=>
  refine .inr ⟨fun p hp e=>?_,rfl⟩
  have:=List.find?_eq_none.1 h p hp
  simp [e] at this
 |some p=>exact .inl ⟨p,List.mem_of_find?_eq_some h,of_decide_eq_true (List.find?_some (p:=fun p:ab × Int=>decide (p.1=nm)) h),rfl⟩
theorem uN:∀p∈dL,1≤p.2∧p.2≤4∧dh p.1=p.2∧(p.2=3→p.1=md)∧p.1.head?.any eT=true∧aD p.1=p.1∧ap p.1=p.1∧∀c∈p.1,dm c=true:=by decide+kernel
theorem xC (nm:ab):0≤dh nm∧dh nm≤4:=by
 rcases m0 nm with ⟨p,hp,-,e⟩|⟨-,e⟩
 ·have:=uN p hp
  rw [e];omega
 ·rw [e];decide
theorem uO (nm:ab) (h:dh nm≠0):∃p∈dL,p.1=nm∧dh nm=p.2:=by
 rcases m0 nm with h1|⟨-,e⟩
 ·exact h1
 ·exact absurd e h
abbrev jN (t:am):Prop:=t.kind=1∧dh t.name≠0
noncomputable def jc (l:ab):List am × Nat:=
 if (nx l).2.2=true then
  (if jN (nx l).1 then ((nx l).1::(df (dh (nx l).1.name) (nx l).1.name (l.drop (nx l).2.1)).1,(nx l).2.1+(df (dh (nx l).1.name) (nx l).1.name (l.drop (nx l).2.1)).2) else ([(nx l).1],(nx l).2.1))
 else ([],(nx l).2.1)
noncomputable def pd:Nat→ab→List am
 |0,_=>[]
 |f+1,l=>if l=[] then [] else (jc l).1++pd f (l.drop (jc l).2)
noncomputable def eH (l:ab):List am:=pd l.length l
noncomputable def na (l:ab):List am:=bN (eH l)
theorem AV (l:ab):(jc l).2≤l.length∧(l≠[]→1≤(jc l).2):=by
 have h:=Fq l
 unfold jc
 split
 ·split
  ·have h2:=(pB (dh (nx l).1.name) (nx l).1.name (l.drop (nx l).2.1)).1
   rw [List.length_drop] at h2
   exact ⟨by simp only;omega,fun hl=>by have:=h.2 hl;simp only;omega⟩
  ·exact h
 ·exact h
theorem qR:∀(f g:Nat) (l:ab),l.length≤f→l.length≤g→pd f l=pd g l
 |0,0,l,_,_=>rfl
 |0,g+1,l,h,_=>by
  have:l=[]:=List.eq_nil_of_length_eq_zero (by omega)
  subst this;rfl
 |f+1,0,l,_,h=>by
  have:l=[]:=List.eq_nil_of_length_eq_zero (by omega)
  subst this;rfl
 |f+1,g+1,l,h1,h2=>by
  unfold pd
  by_cases hl:l=[]
  ·rw [if_pos hl,if_pos hl]
  ·rw [if_neg hl,if_neg hl]
   have:=(AV l).2 hl
   rw [qR f g _ (by rw [List.length_drop];omega) (by rw [List.length_drop];omega)]
theorem AW:eH []=[]:=rfl
theorem qT (l:ab) (h:l≠[]):eH l=(jc l).1++eH (l.drop (jc l).2):=by
 have hp:=(AV l).2 h
 have hl:=List.length_pos_iff.2 h
 unfold eH
 rw [qR l.length ((l.length-1)+1) l (Nat.le_refl _) (by omega),pd,if_neg h]
 rw [qR (l.length-1) (l.drop (jc l).2).length _ (by rw [List.length_drop];omega) (Nat.le_refl _)]
theorem FI (c:UInt8) (h:er c=true):dm c=false:=by
 unfold er at h
 unfold dm cd
 rw [h];rfl
theorem AX:∀(nm l:ab),nm.isPrefixOf (aD l)=true→(∀c∈nm,dm c=true)→(l.drop nm.length).head?.any er=true→aD (l.takeWhile dm)=nm
 |[],l,_,_,h=>by
  cases l with
  |nil=>rfl
  |cons c t=>
   have hc:er c=true:=by simpa using h
   rw [List.takeWhile_cons,FI c hc];rfl
 |d::nm,l,hp,ht,h=>by
  cases l with
  |nil=>simp [aD] at hp
  |cons e l=>
   rw [aI,List.isPrefixOf_cons_cons,Bool.and_eq_true,beq_iff_eq] at hp
   have hte:dm e=true:=by
    have:=ht d (.head _)
    rw [hp.1,(kT e).2.2.1] at this
    exact this
   rw [List.takeWhile_cons,if_pos hte,aI,AX nm l hp.2 (fun c hc=>ht c (.tail _ hc)) (by simpa using h),hp.1]
theorem IC (nm l:ab) (hl:nm.head?.any eT=true) (ht:∀c∈nm,dm c=true) (hc:ap nm=nm) (h:bT nm l=true):aS l=2∧aL (jC l)=nm:=by
 unfold bT at h
 rw [Bool.and_eq_true,Bool.and_eq_true] at h
 obtain ⟨-,hp,htl⟩:=h
 obtain ⟨a,b,r,rfl⟩:∃a b r,l=a::b::r:=by
  match l,hp with
  |[],hp=>simp [aD] at hp
  |[c],hp=>simp [aD,List.isPrefixOf] at hp
  |a::b::r,_=>exact ⟨a,b,r,rfl⟩
 rw [aI,aI,List.isPrefixOf_cons_cons,List.isPrefixOf_cons_cons,Bool.and_eq_true,Bool.and_eq_true,beq_iff_eq,beq_iff_eq] at hp
 obtain ⟨h60,h47,hp⟩:=hp
 have e60:a=60:=(kT a).2.2.2.2.2.2.2.2.1 h60.symm
 have e47:b=47:=(kT b).2.2.2.2.1.1 h47.symm
 subst e60
 subst e47
 have htl':(r.drop nm.length).head?.any er=true:=by
  rw [show (60::47::r).drop (2+nm.length)=r.drop nm.length by rw [Nat.add_comm];rfl] at htl
  exact htl
 have hw:=AX nm r hp ht htl'
 have hbt:aS (60::47::r)=2:=by
  cases nm with
  |nil=>simp at hl
  |cons d nm=>
   cases r with
   |nil=>simp [aD] at hp
   |cons e r=>
    rw [aI,List.isPrefixOf_cons_cons,Bool.and_eq_true,beq_iff_eq] at hp
    have hd:eT d=true:=by simpa using hl
    rw [hp.1,(kT e).2.1] at hd
    unfold aS
    simp [hd]
 refine ⟨hbt,?_⟩
 unfold jC aL
 rw [hbt]
 show ap (aD (r.takeWhile dm))=nm
 rw [hw,hc]
theorem FJ (nm l:ab) (hs:dh nm≠0) (h:bT nm l=true):aS l≠0∧∀t n,gQ l=some (t,n)→t=⟨2,nm,[],[],false⟩:=by
 obtain ⟨p,hp,rfl,-⟩:=uO nm hs
 obtain ⟨-,-,-,-,h1,-,h2,h3⟩:=uN p hp
 obtain ⟨e1,e2⟩:=IC p.1 l h1 h3 h2 h
 refine ⟨by rw [e1];decide,fun t n hr=>?_⟩
 obtain ⟨-,-,-,al,self,ht,-⟩:=ep l t n hr
 rw [ht,e1]
 unfold ux
 rw [if_neg (by decide),e2]
theorem Kr (nm l:ab) (hs:dh nm≠0) (hlt:aR (dh nm) nm l<l.length):bT nm (l.drop (aR (dh nm) nm l))=true:=by
 obtain ⟨p,hp,rfl,-⟩:=uO nm hs
 obtain ⟨h1,h2,h0,h3,-⟩:=uN p hp
 rw [h0] at hlt⊢
 unfold aR at hlt⊢
 by_cases h12:p.2=1∨p.2=2
 ·rw [if_pos h12] at hlt⊢
  exact (py p.1 l).2.2 hlt
 ·rw [if_neg h12] at hlt⊢
  by_cases h4:p.2=3
  ·rw [if_pos h4] at hlt⊢
   rw [h3 h4]
   exact ((ES 0 0 l (by decide)).2.2 hlt).1
  ·rw [if_neg h4] at hlt
   exact absurd hlt (Nat.lt_irrefl _)
theorem qU (nm l:ab) (hs:dh nm≠0):∃x,((df (dh nm) nm l).1=ba x∧(df (dh nm) nm l).2=l.length)∨(df (dh nm) nm l).1=ba x++[⟨2,nm,[],[],false⟩]:=by
 have hr:=xC nm
 have hle:=pA (dh nm) nm l
 refine ⟨eQ (dh nm) nm l,?_⟩
 unfold df
 rw [if_pos (by omega)]
 by_cases he:aR (dh nm) nm l=l.length
 ·rw [if_pos he];exact .inl ⟨rfl,rfl⟩
 ·rw [if_neg he]
  obtain ⟨h1,h2⟩:=FJ nm _ hs (Kr nm l hs (by omega))
  rw [if_pos h1]
  cases hx:gQ (l.drop (aR (dh nm) nm l)) with
  |none=>exact .inl ⟨rfl,rfl⟩
  |some r=>
   obtain ⟨t,n⟩:=r
   refine .inr ?_
   rw [h2 t n hx]
inductive KM:List am→Prop
 |nil:KM []
 |other (t:am) (L:List am):¬jN t→KM L→KM (t::L)
 |last (t:am) (x:ab):jN t→KM (t::ba x)
 |ended (t u:am) (x:ab) (L:List am):jN t→u.kind=2→u.name=t.name→KM L→KM (t::(ba x++u::L))
theorem AY:∀(f:Nat) (l:ab),(pd f l).length≤3*f
 |0,_=>Nat.le_refl _
 |f+1,l=>by
  unfold pd
  split
  ·exact Nat.zero_le _
  ·have ih:=AY f (l.drop (jc l).2)
   rw [List.length_append]
   have h3:(jc l).1.length≤3:=by
    unfold jc
    split
    ·split
     ·rename_i h
      obtain ⟨x,⟨e,-⟩|e⟩:=qU (nx l).1.name (l.drop (nx l).2.1) h.2
      ·rw [e];have:=qJ x;simp;omega
      ·rw [e];have:=qJ x;simp;omega
     ·simp
    ·simp
   omega
end Go.Proofs.YtpmdcppnlggckaaGreatDoor
namespace Go.Proofs.YtpmdcppnlggckaaGreatDoor
open Go.RowKit Go.Lib
theorem FL (x:ab):(aL x).length≤3*x.length:=by
 unfold aL
 have:=(dR (aD x)).2
 rw [dN] at this
 exact this
theorem FM (l:ab) (t:am) (n:Nat) (h:gQ l=some (t,n)):t.name.length≤3*l.length:=by
 obtain ⟨h1,h2,-,al,self,ht,-⟩:=ep l t n h
 have h3:=FL (jC l)
 have e:t.name=aL (jC l):=by rw [ht];unfold ux;split<;>rfl
 rw [e];omega
theorem ID (l:ab):(nx l).1.name.length≤3*l.length:=by
 rcases fQ l with ⟨h,-,e⟩|⟨h,t,n,hr,e⟩|⟨-,h,e⟩|⟨-,-,h,e⟩|⟨-,-,-,h,e⟩|⟨-,-,-,-,-,-,h,e⟩|⟨-,-,-,-,-,h,e⟩
 all_goals rw [e];simp only
 ·exact Nat.zero_le _
 ·exact FM l t n hr
 all_goals exact Nat.zero_le _
theorem IE (l:ab) (h:(nx l).2.2=false):(nx l).1=aG:=by
 rcases fQ l with ⟨_,-,e⟩|⟨_,t,n,hr,e⟩|⟨-,_,e⟩|⟨-,-,_,e⟩|⟨-,-,-,_,e⟩|⟨-,-,-,-,-,-,_,e⟩|⟨-,-,-,-,-,_,e⟩
 all_goals rw [e] at h⊢
 all_goals first|rfl|(simp at h)
end Go.Proofs.YtpmdcppnlggckaaGreatDoor
namespace Go.Proofs.YtpmdcppnlggckaaGreatDoor
open Go.RowKit Go.Lib Go.WideMaps Go.Maps
def qV (w:World) (P:Program) (k e:TypeId) (b n:Nat) (f:ab→Option Int):Prop:=
 ∃D:DataW Unit,w.ownsMap P k (plainElem P e) b n D∧IsMap D∧∀t:ab,D.atKey (.string t) (.lit (.int .i64 0))= .lit (.int .i64 ((f t).getD 0))∧Maps.has D (.string t)=(f t).isSome
theorem xE (w:World) (P:Program) (k e:TypeId):qV (w.alloc (.map #[] 0)) P k e w.heap.size 0 (fun _=>none):=
 ⟨.map [],World.ownsMap_made _ _ _ _,isMap_empty,fun _=>⟨rfl,rfl⟩⟩
def uP (t:TypeId) (b:Nat):Act→List Oper→List (ab × Int)→Prop
 |a,o::os,p::ks=>o.guard=none∧(∃m x v,o.op=Op.insert t m x v∧a.eval m= .map (some b)∧a.eval x= .string ⟨p.1.toArray⟩∧a.eval v= .int .i64 p.2)∧uP t b (a.put o.dst undef) os ks
 |_,[],[]=>True
 |_,_,_=>False
def CJ (f:ab→Option Int) (p:ab × Int):ab→Option Int:=fun u=>if u=p.1 then some p.2 else f u
theorem ib {P:Program} {ops:Array Oper} {rest:List Oper} {Q:Exit→Act→World→Prop} (t k e:TypeId) (hk:P.underlying k=some .string) (ht:P.underlying t=some (.map k e)) (he:P.underlying e=some (.int .i64)) (b:Nat):∀(ks:List (ab × Int)) (os:List Oper) (a:Act) (w:World) (n:Nat) (f:ab→Option Int),qV w P k e b n f→n+ks.length<maxLen→(∀p∈ks,p.1.length≤maxLen∧(Lit.int .i64 p.2).wf=true)→uP t b a os ks→(∀w',qV w' P k e b (n+ks.length) (ks.foldl CJ f)→w.grownBy w' (some b)→wpList P ops Q rest (os.foldl (fun a o=>a.put o.dst undef) a) w')→wpList P ops Q (os++rest) a w
 |[],[],a,w,n,f,h,_,_,_,hK=>hK w h (World.grownBy.refl w _)
 |[],o::os,a,w,n,f,_,_,_,hI,_=>by simp [uP] at hI
 |p::ks,[],a,w,n,f,_,_,_,hI,_=>by simp [uP] at hI
 |p::ks,o::os,a,w,n,f,h,hn,hs,hI,hK=>by
  obtain ⟨hg,⟨m,x,v,hop,hm,hx,hv⟩,hI⟩:=hI
  obtain ⟨D,h1,h2,h3⟩:=h
  obtain ⟨hs1,hs2⟩:=hs p (.head _)
  rw [List.length_cons] at hn
  have hsz:(⟨p.1.toArray⟩:ByteArray).size≤maxLen:=by rw [Lib.size_eq,List.toList_toArray];exact hs1
  obtain ⟨w',hrun,r,g⟩:=h1.update (string_keyed hk) ht (by omega) (keyOf_string_mk hk hsz) (plainElem_int he hs2)
  rw [List.toList_toArray] at r
  show wpList P ops Q (o::(os++rest)) a w
  refine wpList_plain hg fun K' hK'=>?_
  unfold Oper.wp
  simp [execOp,hop,hm,hx,hv,hrun,Result.andThen]
  refine hK' _ _ (ib t k e hk ht he b ks os _ w' (n+1) (CJ f p) ⟨_,r,h2.put _ _,fun u=>?_⟩ (by omega) (fun q hq=>hs q (.tail _ hq)) hI fun w2 hw2 g2=>?_)
  ·unfold CJ
   by_cases hu:u=p.1
   ·rw [if_pos hu,hu]
    exact ⟨atKey_put_same h2 (show WideAt.IsKeyLit (.string p.1) from trivial) _ _,has_put_same h2 (show WideAt.IsKeyLit (.string p.1) from trivial) _⟩
   ·rw [if_neg hu,atKey_put_other (fun e=>hu (by injection e)) _ _,has_put_other (fun e=>hu (by injection e)) _]
    exact h3 u
  ·refine hK w2 ?_ (g.andThen g2 (fun j hj=> .inr hj))
   rw [List.length_cons,Nat.add_comm ks.length 1,←Nat.add_assoc]
   exact hw2
theorem jO {P:Program} {w:World} {ops:Array Oper} {rest:List Oper} {o:Oper} {a:Act} {Q:Exit→Act→World→Prop} (hg:o.guard=none) (m x:Operand) (t:TypeId) (hop:o.op=Op.lookup t m x true) (k e:TypeId) (hk:P.underlying k=some .string) (ht:P.underlying t=some (.map k e)) (he:P.underlying e=some (.int .i64)) (hz:(zeroValue e).run P w= .ok (.int .i64 0) w) (b n:Nat) (f:ab→Option Int) (hm:a.eval m= .map (some b)) (hown:qV w P k e b n f) (s:ByteArray) (hs:s.size≤maxLen) (hx:a.eval x= .string s) (hK:wpList P ops Q rest (a.put o.dst (.tuple #[.int .i64 ((f s.data.toList).getD 0),.bool (f s.data.toList).isSome])) w):wpList P ops Q (o::rest) a w:=by
 obtain ⟨D,h1,h2,h3⟩:=hown
 obtain ⟨e1,e2⟩:=h3 s.data.toList
 refine wpList_lookup_own_ok_int w hg m x t hop k e .i64 (string_keyed hk) ht he hz b n D hm h1 _ _ hx (keyOf_string_mk hk hs) ?_
 intro c hc _
 rw [e1] at hc
 simp only [DataW.lit.injEq,Lit.int.injEq,true_and] at hc
 rw [e2,←hc]
 exact hK
def KN:ab→Option Int:=dL.foldl CJ (fun _=>none)
theorem tn (u:ab):∀(ks:List (ab × Int)) (f:ab→Option Int),(∀p∈ks,p.1≠u)→ks.foldl CJ f u=f u
 |[],f,_=>rfl
 |p::ks,f,h=>by
  rw [List.foldl_cons,tn u ks _ (fun q hq=>h q (.tail _ hq))]
  unfold CJ
  rw [if_neg (fun e=>h p (.head _) e.symm)]
theorem IF:∀p∈dL,KN p.1=some p.2:=by decide+kernel
theorem Ks (nm:ab):(KN nm).getD 0=dh nm∧(KN nm).isSome=decide (dh nm≠0):=by
 rcases m0 nm with ⟨p,hp,rfl,e⟩|⟨h,e⟩
 ·have h1:=uN p hp
  rw [IF p hp,e]
  exact ⟨rfl,(decide_eq_true (show p.2≠0 by omega)).symm⟩
 ·rw [show KN nm=none from tn nm dL _ h,e]
  exact ⟨rfl,rfl⟩
theorem r9 (w : World) :
    Calls Tryz.prog 137 #[] w fun e w' => e = .returned (.map (some w.heap.size)) ∧ qV w' Tryz.prog 9 3 w.heap.size 10 KN ∧ Below w.heap.size w w' := by
  have hmm := @run_makeMap Tryz.prog
  go_enter Tryz.func137, Tryz.ntmps137
  go_wp2_with (refine ib (os := [_, _, _, _, _, _, _, _, _, _]) 85 9 3 Tryz.underlying9 Tryz.underlying85 Tryz.underlying3 w.heap.size dL _ _ 0 _ (xE _ _ _ _) (by decide) (by decide +kernel) (by
    exact ⟨rfl, ⟨_, _, _, rfl, rfl, rfl, rfl⟩, rfl, ⟨_, _, _, rfl, rfl, rfl, rfl⟩, rfl, ⟨_, _, _, rfl, rfl, rfl, rfl⟩, rfl, ⟨_, _, _, rfl, rfl, rfl, rfl⟩, rfl, ⟨_, _, _, rfl, rfl, rfl, rfl⟩, rfl, ⟨_, _, _, rfl, rfl, rfl, rfl⟩, rfl, ⟨_, _, _, rfl, rfl, rfl, rfl⟩, rfl, ⟨_, _, _, rfl, rfl, rfl, rfl⟩, rfl, ⟨_, _, _, rfl, rfl, rfl, rfl⟩, rfl, ⟨_, _, _, rfl, rfl, rfl, rfl⟩, trivial⟩) ?_)
  intro w2 hown2 hg2
  simp only [List.foldl_cons, List.foldl_nil]
  go_wp2
  go_ret
  exact ⟨rfl, hown2, ((Below.refl _ w).alloc (Nat.le_refl _) _).grown hg2 (by simp) (fun j hj => by cases hj; exact Nat.le_refl _)⟩
theorem uQ (nm:ByteArray) (w:World) (hn:nm.size≤16777216) (_h:cc w):Calls Tryz.prog 90 #[.string nm] w fun e w'=>e= .returned (.int .i64 (dh nm.data.toList))∧Below w.heap.size w w':=by
 have HS:=fun w=>Lib.hid (r9 w)
 obtain ⟨e1,e2⟩:=Ks nm.data.toList
 have hnm:nm.size≤maxLen:=by unfold maxLen;omega
 obtain ⟨F,hF⟩:∃F,KN=F:=⟨_,rfl⟩
 rw [hF] at HS e1 e2
 obtain ⟨K,hK⟩:∃K,dh nm.data.toList=K:=⟨_,rfl⟩
 rw [hK] at e1 e2⊢
 have E1:=Lib.hid e1
 have E2:=Lib.hid e2
 have hz:∀w,(zeroValue 3).run Tryz.prog w= .ok (.int .i64 0) w:=fun w=>by kernel_rfl
 clear e1 e2 hF hK _h
 by_cases h0:K=0
 ·have E3:Hid ((F nm.data.toList).isSome=false):=Lib.hid (by rw [E2.out];exact decide_eq_false (fun h=>h h0))
  have H0:=Lib.hid h0
  clear h0 E2
  go_enter Tryz.func90,Tryz.ntmps90
  go_wp2_with (first
   |(go_at_call 137;refine (HS _).out.mono ?_;rintro e w1 ⟨rfl,hown,b1⟩)
   |(at_lookup;refine jO rfl _ _ 85 rfl 9 3 Tryz.underlying9 Tryz.underlying85 Tryz.underlying3 (hz _) w.heap.size 10 F rfl hown nm hnm rfl ?_;rw [E1.out,E3.out]))
  go_ret
  exact ⟨av H0.out.symm,b1⟩
 ·have E3:Hid ((F nm.data.toList).isSome=true):=Lib.hid (by rw [E2.out];exact decide_eq_true h0)
  clear h0 E2
  go_enter Tryz.func90,Tryz.ntmps90
  go_wp2_with (first
   |(go_at_call 137;refine (HS _).out.mono ?_;rintro e w1 ⟨rfl,hown,b1⟩)
   |(at_lookup;refine jO rfl _ _ 85 rfl 9 3 Tryz.underlying9 Tryz.underlying85 Tryz.underlying3 (hz _) w.heap.size 10 F rfl hown nm hnm rfl ?_;rw [E1.out,E3.out]))
  go_ret
  exact ⟨rfl,b1⟩
theorem sa (t:am) (ad:Option Addr) (len cap:Nat) (w:World) (hn:t.name.length≤16777216) (h:cc w):Calls Tryz.prog 51 #[dU t ad len cap] w fun e w'=>e= .returned (.int .i64 (if t.kind=1 then dh t.name else 0))∧Below w.heap.size w w':=by
 have HW:=Lib.hid h
 obtain ⟨nm,hnm⟩:∃nm:ByteArray,(⟨t.name.toArray⟩:ByteArray)=nm:=⟨_,rfl⟩
 have hnm2:nm.data.toList=t.name:=by rw [←hnm,List.toList_toArray]
 have HS:=fun w h=>Lib.hid (uQ nm w (by rw [Lib.size_eq,hnm2];exact hn) h)
 rw [hnm2] at HS
 unfold dU
 rw [hnm]
 obtain ⟨K,hK⟩:∃K,t.kind=K:=⟨_,rfl⟩
 rw [hK]
 by_cases hk:K=1
 ·subst hk
  rw [if_pos rfl]
  clear hK hnm hnm2 h
  obtain ⟨R,hR⟩:∃R,dh t.name=R:=⟨_,rfl⟩
  rw [hR] at HS⊢
  clear hR
  go_enter Tryz.func51,Tryz.ntmps51
  have A1:=Lib.hid ((Below.refl w.heap.size w).alloc (Nat.le_refl _) (.cells #[.int .i64 1,.string nm,.string ⟨t.text.toArray⟩,.slice ad len cap,.bool t.self] 54))
  go_wp2_with (go_at_call 90;refine (HS _ (HW.out.below A1.out)).out.mono ?_;rintro e w1 ⟨rfl,b1⟩)
  go_ret
  exact ⟨rfl,A1.out.trans (b1.mono A1.out.size)⟩
 ·rw [if_neg hk]
  have bk:(K==1)=false:=beq_eq_false_iff_ne.2 hk
  have bk2:(K != 1)=true:=by rw [bne,bk];rfl
  have A1:=Lib.hid ((Below.refl w.heap.size w).alloc (Nat.le_refl _) (.cells #[.int .i64 K,.string nm,.string ⟨t.text.toArray⟩,.slice ad len cap,.bool t.self] 54))
  clear hK hnm hnm2 h hk HS
  go_enter Tryz.func51,Tryz.ntmps51
  go_wp2
  go_ret
  exact ⟨rfl,A1.out⟩
end Go.Proofs.YtpmdcppnlggckaaGreatDoor
namespace Go.Proofs.YtpmdcppnlggckaaGreatDoor
open Go.RowKit Go.Lib
theorem FN (nm:ByteArray) (h:∀p∈dL,p.1≠nm.data.toList):((nm.toList==[116,105,116,108,101])=false)∧((nm.toList==[116,101,120,116,97,114,101,97])=false)∧((nm.toList==[115,116,121,108,101])=false)∧((nm.toList==[120,109,112])=false)∧((nm.toList==[105,102,114,97,109,101])=false)∧((nm.toList==[110,111,101,109,98,101,100])=false)∧((nm.toList==[110,111,102,114,97,109,101,115])=false)∧((nm.toList==[110,111,115,99,114,105,112,116])=false)∧((nm.toList==[115,99,114,105,112,116])=false)∧((nm.toList==[112,108,97,105,110,116,101,120,116])=false):=by
 have hk:∀p∈dL,(nm.toList==p.1)=false:=fun p hp=>by
  rw [beq_eq_false_iff_ne,ByteArray.toList_eq];exact fun e=>h p hp e.symm
 exact ⟨hk ([116,105,116,108,101],1) (by simp [dL]),hk ([116,101,120,116,97,114,101,97],1) (by simp [dL]),hk ([115,116,121,108,101],2) (by simp [dL]),hk ([120,109,112],2) (by simp [dL]),hk ([105,102,114,97,109,101],2) (by simp [dL]),hk ([110,111,101,109,98,101,100],2) (by simp [dL]),hk ([110,111,102,114,97,109,101,115],2) (by simp [dL]),hk ([110,111,115,99,114,105,112,116],2) (by simp [dL]),hk ([115,99,114,105,112,116],3) (by simp [dL]),hk ([112,108,97,105,110,116,101,120,116],4) (by simp [dL])⟩
theorem qW (nm:ByteArray) (w:World):Calls Tryz.prog 35 #[.string nm] w fun e w'=>e= .returned (.int .i64 (dh nm.data.toList))∧w'=w:=by
 rcases m0 nm.data.toList with ⟨p,hp,h1,h2⟩|⟨hn,h2⟩
 ·rw [h2]
  have hnm:nm=⟨p.1.toArray⟩:=bu (by rw [List.toList_toArray];exact h1.symm)
  subst hnm
  clear h1 h2
  simp only [dL,List.mem_cons,List.not_mem_nil,or_false] at hp
  rcases hp with rfl|rfl|rfl|rfl|rfl|rfl|rfl|rfl|rfl|rfl
  all_goals
   go_enter Tryz.func35,Tryz.ntmps35
   go_wp2
   go_ret
   exact ⟨rfl,rfl⟩
 ·rw [h2]
  obtain ⟨e1,e2,e3,e4,e5,e6,e7,e8,e9,e10⟩:=FN nm hn
  clear hn h2
  go_enter Tryz.func35,Tryz.ntmps35
  go_wp2
  go_ret
  exact ⟨rfl,rfl⟩
end Go.Proofs.YtpmdcppnlggckaaGreatDoor
