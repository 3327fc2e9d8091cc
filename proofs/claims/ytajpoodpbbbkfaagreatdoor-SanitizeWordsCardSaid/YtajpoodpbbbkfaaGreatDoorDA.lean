/-
  Texts laid together: DrvMath, DrvName, DrvMap, DrvRef.
-/
import Derived.Test.YtajpoodpbbbkfaaGreatDoorQB
import Derived.Maps.OwnSet
import Derived.Maps.Views
import Derived.Test.YtajpoodpbbbkfaaGreatDoorP6
import Derived.ProofKit
import Derived.WalkKit
import Derived.Test.YtajpoodpbbbkfaaGreatDoorQH
import Derived.Test.YtajpoodpbbbkfaaGreatDoorTA
import Derived.Deep.RegionHeld3
set_option maxHeartbeats 4000000
set_option maxRecDepth 100000
namespace Go.Proofs.YtajpoodpbbbkfaaGreatDoor
open Go.RowKit Go.Lib
def eg:List (ab × Int):=[([116,105,116,108,101],1),([116,101,120,116,97,114,101,97],1),([115,116,121,108,101],2),([120,109,112],2),([105,102,114,97,109,101],2),([110,111,101,109,98,101,100],2),([110,111,102,114,97,109,101,115],2),([110,111,115,99,114,105,112,116],2),([115,99,114,105,112,116],3),([112,108,97,105,110,116,101,120,116],4)]
def dx (nm:ab):Int:=((eg.find? fun p=>decide (p.1=nm)).map Prod.snd).getD 0
theorem oO (nm:ab):(∃p∈eg,p.1=nm∧dx nm=p.2)∨((∀p∈eg,p.1≠nm)∧dx nm=0):=by
 unfold dx
 cases h:eg.find? (fun p=>decide (p.1=nm)) with
 |none=>
  refine .inr ⟨fun p hp e=>?_,rfl⟩
  have:=List.find?_eq_none.1 h p hp
  simp [e] at this
 |some p=>exact .inl ⟨p,List.mem_of_find?_eq_some h,of_decide_eq_true (List.find?_some (p:=fun p:ab × Int=>decide (p.1=nm)) h),rfl⟩
theorem xz:∀p∈eg,1≤p.2∧p.2≤4∧dx p.1=p.2∧(p.2=3→p.1=nz)∧p.1.head?.any fA=true∧aF p.1=p.1∧ap p.1=p.1∧∀c∈p.1,dI c=true:=by decide+kernel
theorem zU (nm:ab):0≤dx nm∧dx nm≤4:=by
 rcases oO nm with ⟨p,hp,-,e⟩|⟨-,e⟩
 ·have:=xz p hp
  rw [e];omega
 ·rw [e];decide
theorem xA (nm:ab) (h:dx nm≠0):∃p∈eg,p.1=nm∧dx nm=p.2:=by
 rcases oO nm with h1|⟨-,e⟩
 ·exact h1
 ·exact absurd e h
abbrev kQ (t:aq):Prop:=t.kind=1∧dx t.name≠0
noncomputable def gX (l:ab):List aq × Nat:=
 if (nx l).2.2=true then
  (if kQ (nx l).1 then ((nx l).1::(c9 (dx (nx l).1.name) (nx l).1.name (l.drop (nx l).2.1)).1,(nx l).2.1+(c9 (dx (nx l).1.name) (nx l).1.name (l.drop (nx l).2.1)).2) else ([(nx l).1],(nx l).2.1))
 else ([],(nx l).2.1)
noncomputable def oP:Nat→ab→List aq
 |0,_=>[]
 |f+1,l=>if l=[] then [] else (gX l).1++oP f (l.drop (gX l).2)
noncomputable def eD (l:ab):List aq:=oP l.length l
noncomputable def kZ (l:ab):List aq:=bX (eD l)
theorem DZ (l:ab):(gX l).2≤l.length∧(l≠[]→1≤(gX l).2):=by
 have h:=IN l
 unfold gX
 split
 ·split
  ·have h2:=(rC (dx (nx l).1.name) (nx l).1.name (l.drop (nx l).2.1)).1
   rw [List.length_drop] at h2
   exact ⟨by simp only;omega,fun hl=>by have:=h.2 hl;simp only;omega⟩
  ·exact h
 ·exact h
theorem sP:∀(f g:Nat) (l:ab),l.length≤f→l.length≤g→oP f l=oP g l
 |0,0,l,_,_=>rfl
 |0,g+1,l,h,_=>by
  have:l=[]:=List.eq_nil_of_length_eq_zero (by omega)
  subst this;rfl
 |f+1,0,l,_,h=>by
  have:l=[]:=List.eq_nil_of_length_eq_zero (by omega)
  subst this;rfl
 |f+1,g+1,l,h1,h2=>by
  unfold oP
  by_cases hl:l=[]
  ·rw [if_pos hl,if_pos hl]
  ·rw [if_neg hl,if_neg hl]
   have:=(DZ l).2 hl
   rw [sP f g _ (by rw [List.length_drop];omega) (by rw [List.length_drop];omega)]
theorem xB:eD []=[]:=rfl
theorem oQ (l:ab) (h:l≠[]):eD l=(gX l).1++eD (l.drop (gX l).2):=by
 have hp:=(DZ l).2 h
 have hl:=List.length_pos_iff.2 h
 unfold eD
 rw [sP l.length ((l.length-1)+1) l (Nat.le_refl _) (by omega),oP,if_neg h]
 rw [sP (l.length-1) (l.drop (gX l).2).length _ (by rw [List.length_drop];omega) (Nat.le_refl _)]
theorem Ja (c:UInt8) (h:eX c=true):dI c=false:=by
 unfold eX at h
 unfold dI cv
 rw [h];rfl
theorem D0:∀(nm l:ab),nm.isPrefixOf (aF l)=true→(∀c∈nm,dI c=true)→(l.drop nm.length).head?.any eX=true→aF (l.takeWhile dI)=nm
 |[],l,_,_,h=>by
  cases l with
  |nil=>rfl
  |cons c t=>
   have hc:eX c=true:=by simpa using h
   rw [List.takeWhile_cons,Ja c hc];rfl
 |d::nm,l,hp,ht,h=>by
  cases l with
  |nil=>simp [aF] at hp
  |cons e l=>
   rw [aM,List.isPrefixOf_cons_cons,Bool.and_eq_true,beq_iff_eq] at hp
   have hte:dI e=true:=by
    have:=ht d (.head _)
    rw [hp.1,(ml e).2.2.1] at this
    exact this
   rw [List.takeWhile_cons,if_pos hte,aM,D0 nm l hp.2 (fun c hc=>ht c (.tail _ hc)) (by simpa using h),hp.1]
theorem LX (nm l:ab) (hl:nm.head?.any fA=true) (ht:∀c∈nm,dI c=true) (hc:ap nm=nm) (h:cb nm l=true):aV l=2∧aP (kD l)=nm:=by
 unfold cb at h
 rw [Bool.and_eq_true,Bool.and_eq_true] at h
 obtain ⟨-,hp,htl⟩:=h
 obtain ⟨a,b,r,rfl⟩:∃a b r,l=a::b::r:=by
  match l,hp with
  |[],hp=>simp [aF] at hp
  |[c],hp=>simp [aF,List.isPrefixOf] at hp
  |a::b::r,_=>exact ⟨a,b,r,rfl⟩
 rw [aM,aM,List.isPrefixOf_cons_cons,List.isPrefixOf_cons_cons,Bool.and_eq_true,Bool.and_eq_true,beq_iff_eq,beq_iff_eq] at hp
 obtain ⟨h60,h47,hp⟩:=hp
 have e60:a=60:=(ml a).2.2.2.2.2.2.2.2.1 h60.symm
 have e47:b=47:=(ml b).2.2.2.2.1.1 h47.symm
 subst e60
 subst e47
 have htl':(r.drop nm.length).head?.any eX=true:=by
  rw [show (60::47::r).drop (2+nm.length)=r.drop nm.length by rw [Nat.add_comm];rfl] at htl
  exact htl
 have hw:=D0 nm r hp ht htl'
 have hbt:aV (60::47::r)=2:=by
  cases nm with
  |nil=>simp at hl
  |cons d nm=>
   cases r with
   |nil=>simp [aF] at hp
   |cons e r=>
    rw [aM,List.isPrefixOf_cons_cons,Bool.and_eq_true,beq_iff_eq] at hp
    have hd:fA d=true:=by simpa using hl
    rw [hp.1,(ml e).2.1] at hd
    unfold aV
    simp [hd]
 refine ⟨hbt,?_⟩
 unfold kD aP
 rw [hbt]
 show ap (aF (r.takeWhile dI))=nm
 rw [hw,hc]
theorem Jb (nm l:ab) (hs:dx nm≠0) (h:cb nm l=true):aV l≠0∧∀t n,gR l=some (t,n)→t=⟨2,nm,[],[],false⟩:=by
 obtain ⟨p,hp,rfl,-⟩:=xA nm hs
 obtain ⟨-,-,-,-,h1,-,h2,h3⟩:=xz p hp
 obtain ⟨e1,e2⟩:=LX p.1 l h1 h3 h2 h
 refine ⟨by rw [e1];decide,fun t n hr=>?_⟩
 obtain ⟨-,-,-,al,self,ht,-⟩:=eB l t n hr
 rw [ht,e1]
 unfold xk
 rw [if_neg (by decide),e2]
theorem Oo (nm l:ab) (hs:dx nm≠0) (hlt:aG (dx nm) nm l<l.length):cb nm (l.drop (aG (dx nm) nm l))=true:=by
 obtain ⟨p,hp,rfl,-⟩:=xA nm hs
 obtain ⟨h1,h2,h0,h3,-⟩:=xz p hp
 rw [h0] at hlt⊢
 unfold aG at hlt⊢
 by_cases h12:p.2=1∨p.2=2
 ·rw [if_pos h12] at hlt⊢
  exact (oC p.1 l).2.2 hlt
 ·rw [if_neg h12] at hlt⊢
  by_cases h4:p.2=3
  ·rw [if_pos h4] at hlt⊢
   rw [h3 h4]
   exact ((BQ 0 0 l (by decide)).2.2 hlt).1
  ·rw [if_neg h4] at hlt
   exact absurd hlt (Nat.lt_irrefl _)
theorem sQ (nm l:ab) (hs:dx nm≠0):∃x,((c9 (dx nm) nm l).1=aQ x∧(c9 (dx nm) nm l).2=l.length)∨(c9 (dx nm) nm l).1=aQ x++[⟨2,nm,[],[],false⟩]:=by
 have hr:=zU nm
 have hle:=oF (dx nm) nm l
 refine ⟨fb (dx nm) nm l,?_⟩
 unfold c9
 rw [if_pos (by omega)]
 by_cases he:aG (dx nm) nm l=l.length
 ·rw [if_pos he];exact .inl ⟨rfl,rfl⟩
 ·rw [if_neg he]
  obtain ⟨h1,h2⟩:=Jb nm _ hs (Oo nm l hs (by omega))
  rw [if_pos h1]
  cases hx:gR (l.drop (aG (dx nm) nm l)) with
  |none=>exact .inl ⟨rfl,rfl⟩
  |some r=>
   obtain ⟨t,n⟩:=r
   refine .inr ?_
   rw [h2 t n hx]
inductive OS:List aq→Prop
 |nil:OS []
 |other (t:aq) (L:List aq):¬kQ t→OS L→OS (t::L)
 |last (t:aq) (x:ab):kQ t→OS (t::aQ x)
 |ended (t u:aq) (x:ab) (L:List aq):kQ t→u.kind=2→u.name=t.name→OS L→OS (t::(aQ x++u::L))
theorem Cd (x:ab):cE [] (aQ x)=aQ x:=by
 unfold aQ
 split
 ·rfl
 ·rename_i h;simp [cE,aQ,d9,h]
theorem D1:∀(f:Nat) (l:ab),(oP f l).length≤3*f
 |0,_=>Nat.le_refl _
 |f+1,l=>by
  unfold oP
  split
  ·exact Nat.zero_le _
  ·have ih:=D1 f (l.drop (gX l).2)
   rw [List.length_append]
   have h3:(gX l).1.length≤3:=by
    unfold gX
    split
    ·split
     ·rename_i h
      obtain ⟨x,⟨e,-⟩|e⟩:=sQ (nx l).1.name (l.drop (nx l).2.1) h.2
      ·rw [e];have:=oG x;simp;omega
      ·rw [e];have:=oG x;simp;omega
     ·simp
    ·simp
   omega
end Go.Proofs.YtajpoodpbbbkfaaGreatDoor
namespace Go.Proofs.YtajpoodpbbbkfaaGreatDoor
open Go.RowKit Go.Lib
theorem Jc (x:ab):(aP x).length≤3*x.length:=by
 unfold aP
 have:=(er (aF x)).2
 rw [ej] at this
 exact this
theorem Je (l:ab) (t:aq) (n:Nat) (h:gR l=some (t,n)):t.name.length≤3*l.length:=by
 obtain ⟨h1,h2,-,al,self,ht,-⟩:=eB l t n h
 have h3:=Jc (kD l)
 have e:t.name=aP (kD l):=by rw [ht];unfold xk;split<;>rfl
 rw [e];omega
theorem LY (l:ab):(nx l).1.name.length≤3*l.length:=by
 rcases fc l with ⟨h,-,e⟩|⟨h,t,n,hr,e⟩|⟨-,h,e⟩|⟨-,-,h,e⟩|⟨-,-,-,h,e⟩|⟨-,-,-,-,-,-,h,e⟩|⟨-,-,-,-,-,h,e⟩
 all_goals rw [e];simp only
 ·exact Nat.zero_le _
 ·exact Je l t n hr
 all_goals exact Nat.zero_le _
theorem LZ (l:ab) (h:(nx l).2.2=false):(nx l).1=aJ:=by
 rcases fc l with ⟨_,-,e⟩|⟨_,t,n,hr,e⟩|⟨-,_,e⟩|⟨-,-,_,e⟩|⟨-,-,-,_,e⟩|⟨-,-,-,-,-,-,_,e⟩|⟨-,-,-,-,-,_,e⟩
 all_goals rw [e] at h⊢
 all_goals first|rfl|(simp at h)
end Go.Proofs.YtajpoodpbbbkfaaGreatDoor
namespace Go.Proofs.YtajpoodpbbbkfaaGreatDoor
open Go.RowKit Go.Lib Go.WideMaps Go.Maps
def sR (w:World) (P:Program) (k e:TypeId) (b n:Nat) (f:ab→Option Int):Prop:=
 ∃D:DataW Unit,w.ownsMap P k (plainElem P e) b n D∧IsMap D∧∀t:ab,D.atKey (.string t) (.lit (.int .i64 0))= .lit (.int .i64 ((f t).getD 0))∧Maps.has D (.string t)=(f t).isSome
theorem zV (w:World) (P:Program) (k e:TypeId):sR (w.alloc (.map #[] 0)) P k e w.heap.size 0 (fun _=>none):=
 ⟨.map [],World.ownsMap_made _ _ _ _,isMap_empty,fun _=>⟨rfl,rfl⟩⟩
def xC (t:TypeId) (b:Nat):Act→List Oper→List (ab × Int)→Prop
 |a,o::os,p::ks=>o.guard=none∧(∃m x v,o.op=Op.insert t m x v∧a.eval m= .map (some b)∧a.eval x= .string ⟨p.1.toArray⟩∧a.eval v= .int .i64 p.2)∧xC t b (a.put o.dst undef) os ks
 |_,[],[]=>True
 |_,_,_=>False
def Fv (f:ab→Option Int) (p:ab × Int):ab→Option Int:=fun u=>if u=p.1 then some p.2 else f u
theorem jj {P:Program} {ops:Array Oper} {rest:List Oper} {Q:Exit→Act→World→Prop} (t k e:TypeId) (hk:P.underlying k=some .string) (ht:P.underlying t=some (.map k e)) (he:P.underlying e=some (.int .i64)) (b:Nat):∀(ks:List (ab × Int)) (os:List Oper) (a:Act) (w:World) (n:Nat) (f:ab→Option Int),sR w P k e b n f→n+ks.length<maxLen→(∀p∈ks,p.1.length≤maxLen∧(Lit.int .i64 p.2).wf=true)→xC t b a os ks→(∀w',sR w' P k e b (n+ks.length) (ks.foldl Fv f)→w.grownBy w' (some b)→wpList P ops Q rest (os.foldl (fun a o=>a.put o.dst undef) a) w')→wpList P ops Q (os++rest) a w
 |[],[],a,w,n,f,h,_,_,_,hK=>hK w h (World.grownBy.refl w _)
 |[],o::os,a,w,n,f,_,_,_,hI,_=>by simp [xC] at hI
 |p::ks,[],a,w,n,f,_,_,_,hI,_=>by simp [xC] at hI
 |p::ks,o::os,a,w,n,f,h,hn,hs,hI,hK=>by
  obtain ⟨hg,⟨m,x,v,hop,hm,hx,hv⟩,hI⟩:=hI
  obtain ⟨D,h1,h2,h3⟩:=h
  obtain ⟨hs1,hs2⟩:=hs p (.head _)
  rw [List.length_cons] at hn
  have hsz:(⟨p.1.toArray⟩:ByteArray).size≤maxLen:=by rw [Lib.size_eq,List.toList_toArray];exact hs1
  obtain ⟨w',hrun,r,g⟩:=h1.update (string_keyed hk) ht (by omega) (keyOf_string_mk hk hsz) (plainElem_int he hs2)
  rw [List.toList_toArray] at r
  show wpList P ops Q (o::(os++rest)) a w
  refine wpList_plain hg fun K' hK'=>?_
  unfold Oper.wp
  simp [execOp,hop,hm,hx,hv,hrun,Result.andThen]
  refine hK' _ _ (jj t k e hk ht he b ks os _ w' (n+1) (Fv f p) ⟨_,r,h2.put _ _,fun u=>?_⟩ (by omega) (fun q hq=>hs q (.tail _ hq)) hI fun w2 hw2 g2=>?_)
  ·unfold Fv
   by_cases hu:u=p.1
   ·rw [if_pos hu,hu]
    exact ⟨atKey_put_same h2 (show WideAt.IsKeyLit (.string p.1) from trivial) _ _,has_put_same h2 (show WideAt.IsKeyLit (.string p.1) from trivial) _⟩
   ·rw [if_neg hu,atKey_put_other (fun e=>hu (by injection e)) _ _,has_put_other (fun e=>hu (by injection e)) _]
    exact h3 u
  ·refine hK w2 ?_ (g.andThen g2 (fun j hj=> .inr hj))
   rw [List.length_cons,Nat.add_comm ks.length 1,←Nat.add_assoc]
   exact hw2
theorem kR {P:Program} {w:World} {ops:Array Oper} {rest:List Oper} {o:Oper} {a:Act} {Q:Exit→Act→World→Prop} (hg:o.guard=none) (m x:Operand) (t:TypeId) (hop:o.op=Op.lookup t m x true) (k e:TypeId) (hk:P.underlying k=some .string) (ht:P.underlying t=some (.map k e)) (he:P.underlying e=some (.int .i64)) (hz:(zeroValue e).run P w= .ok (.int .i64 0) w) (b n:Nat) (f:ab→Option Int) (hm:a.eval m= .map (some b)) (hown:sR w P k e b n f) (s:ByteArray) (hs:s.size≤maxLen) (hx:a.eval x= .string s) (hK:wpList P ops Q rest (a.put o.dst (.tuple #[.int .i64 ((f s.data.toList).getD 0),.bool (f s.data.toList).isSome])) w):wpList P ops Q (o::rest) a w:=by
 obtain ⟨D,h1,h2,h3⟩:=hown
 obtain ⟨e1,e2⟩:=h3 s.data.toList
 refine wpList_lookup_own_ok_int w hg m x t hop k e .i64 (string_keyed hk) ht he hz b n D hm h1 _ _ hx (keyOf_string_mk hk hs) ?_
 intro c hc _
 rw [e1] at hc
 simp only [DataW.lit.injEq,Lit.int.injEq,true_and] at hc
 rw [e2,←hc]
 exact hK
def OT:ab→Option Int:=eg.foldl Fv (fun _=>none)
theorem vM (u:ab):∀(ks:List (ab × Int)) (f:ab→Option Int),(∀p∈ks,p.1≠u)→ks.foldl Fv f u=f u
 |[],f,_=>rfl
 |p::ks,f,h=>by
  rw [List.foldl_cons,vM u ks _ (fun q hq=>h q (.tail _ hq))]
  unfold Fv
  rw [if_neg (fun e=>h p (.head _) e.symm)]
theorem L0:∀p∈eg,OT p.1=some p.2:=by decide+kernel
theorem Oq (nm:ab):(OT nm).getD 0=dx nm∧(OT nm).isSome=decide (dx nm≠0):=by
 rcases oO nm with ⟨p,hp,rfl,e⟩|⟨h,e⟩
 ·have h1:=xz p hp
  rw [L0 p hp,e]
  exact ⟨rfl,(decide_eq_true (show p.2≠0 by omega)).symm⟩
 ·rw [show OT nm=none from vM nm eg _ h,e]
  exact ⟨rfl,rfl⟩
theorem uC (w : World) :
    Calls Tryz.prog 110 #[] w fun e w' => e = .returned (.map (some w.heap.size)) ∧ sR w' Tryz.prog 9 3 w.heap.size 10 OT ∧ Below w.heap.size w w' := by
  have hmm := @run_makeMap Tryz.prog
  go_enter Tryz.func110, Tryz.ntmps110
  go_wp2_with (refine jj (os := [_, _, _, _, _, _, _, _, _, _]) 109 9 3 Tryz.underlying9 Tryz.underlying109 Tryz.underlying3 w.heap.size eg _ _ 0 _ (zV _ _ _ _) (by decide) (by decide +kernel) (by
    exact ⟨rfl, ⟨_, _, _, rfl, rfl, rfl, rfl⟩, rfl, ⟨_, _, _, rfl, rfl, rfl, rfl⟩, rfl, ⟨_, _, _, rfl, rfl, rfl, rfl⟩, rfl, ⟨_, _, _, rfl, rfl, rfl, rfl⟩, rfl, ⟨_, _, _, rfl, rfl, rfl, rfl⟩, rfl, ⟨_, _, _, rfl, rfl, rfl, rfl⟩, rfl, ⟨_, _, _, rfl, rfl, rfl, rfl⟩, rfl, ⟨_, _, _, rfl, rfl, rfl, rfl⟩, rfl, ⟨_, _, _, rfl, rfl, rfl, rfl⟩, rfl, ⟨_, _, _, rfl, rfl, rfl, rfl⟩, trivial⟩) ?_)
  intro w2 hown2 hg2
  simp only [List.foldl_cons, List.foldl_nil]
  go_wp2
  go_ret
  exact ⟨rfl, hown2, ((Below.refl _ w).alloc (Nat.le_refl _) _).grown hg2 (by simp) (fun j hj => by cases hj; exact Nat.le_refl _)⟩
theorem xE (nm:ByteArray) (w:World) (hn:nm.size≤16777216) (_h:bn w):Calls Tryz.prog 59 #[.string nm] w fun e w'=>e= .returned (.int .i64 (dx nm.data.toList))∧Below w.heap.size w w':=by
 have HS:=fun w=>Lib.hid (uC w)
 obtain ⟨e1,e2⟩:=Oq nm.data.toList
 have hnm:nm.size≤maxLen:=by unfold maxLen;omega
 obtain ⟨F,hF⟩:∃F,OT=F:=⟨_,rfl⟩
 rw [hF] at HS e1 e2
 obtain ⟨K,hK⟩:∃K,dx nm.data.toList=K:=⟨_,rfl⟩
 rw [hK] at e1 e2⊢
 have E1:=Lib.hid e1
 have E2:=Lib.hid e2
 have hz:∀w,(zeroValue 3).run Tryz.prog w= .ok (.int .i64 0) w:=fun w=>by kernel_rfl
 clear e1 e2 hF hK _h
 by_cases h0:K=0
 ·have E3:Hid ((F nm.data.toList).isSome=false):=Lib.hid (by rw [E2.out];exact decide_eq_false (fun h=>h h0))
  have H0:=Lib.hid h0
  clear h0 E2
  go_enter Tryz.func59,Tryz.ntmps59
  go_wp2_with (first
   |(go_at_call 110;refine (HS _).out.mono ?_;rintro e w1 ⟨rfl,hown,b1⟩)
   |(at_lookup;refine kR rfl _ _ 109 rfl 9 3 Tryz.underlying9 Tryz.underlying109 Tryz.underlying3 (hz _) w.heap.size 10 F rfl hown nm hnm rfl ?_;rw [E1.out,E3.out]))
  go_ret
  exact ⟨az H0.out.symm,b1⟩
 ·have E3:Hid ((F nm.data.toList).isSome=true):=Lib.hid (by rw [E2.out];exact decide_eq_true h0)
  clear h0 E2
  go_enter Tryz.func59,Tryz.ntmps59
  go_wp2_with (first
   |(go_at_call 110;refine (HS _).out.mono ?_;rintro e w1 ⟨rfl,hown,b1⟩)
   |(at_lookup;refine kR rfl _ _ 109 rfl 9 3 Tryz.underlying9 Tryz.underlying109 Tryz.underlying3 (hz _) w.heap.size 10 F rfl hown nm hnm rfl ?_;rw [E1.out,E3.out]))
  go_ret
  exact ⟨rfl,b1⟩
theorem uD (t:aq) (ad:Option Addr) (len cap:Nat) (w:World) (hn:t.name.length≤16777216) (h:bn w):Calls Tryz.prog 27 #[eu t ad len cap] w fun e w'=>e= .returned (.int .i64 (if t.kind=1 then dx t.name else 0))∧Below w.heap.size w w':=by
 have HW:=Lib.hid h
 obtain ⟨nm,hnm⟩:∃nm:ByteArray,(⟨t.name.toArray⟩:ByteArray)=nm:=⟨_,rfl⟩
 have hnm2:nm.data.toList=t.name:=by rw [←hnm,List.toList_toArray]
 have HS:=fun w h=>Lib.hid (xE nm w (by rw [Lib.size_eq,hnm2];exact hn) h)
 rw [hnm2] at HS
 unfold eu
 rw [hnm]
 obtain ⟨K,hK⟩:∃K,t.kind=K:=⟨_,rfl⟩
 rw [hK]
 by_cases hk:K=1
 ·subst hk
  rw [if_pos rfl]
  clear hK hnm hnm2 h
  obtain ⟨R,hR⟩:∃R,dx t.name=R:=⟨_,rfl⟩
  rw [hR] at HS⊢
  clear hR
  go_enter Tryz.func27,Tryz.ntmps27
  have A1:=Lib.hid ((Below.refl w.heap.size w).alloc (Nat.le_refl _) (.cells #[.int .i64 1,.string nm,.string ⟨t.text.toArray⟩,.slice ad len cap,.bool t.self] 33))
  go_wp2_with (go_at_call 59;refine (HS _ (HW.out.below A1.out)).out.mono ?_;rintro e w1 ⟨rfl,b1⟩)
  go_ret
  exact ⟨rfl,A1.out.trans (b1.mono A1.out.size)⟩
 ·rw [if_neg hk]
  have bk:(K==1)=false:=beq_eq_false_iff_ne.2 hk
  have bk2:(K != 1)=true:=by rw [bne,bk];rfl
  have A1:=Lib.hid ((Below.refl w.heap.size w).alloc (Nat.le_refl _) (.cells #[.int .i64 K,.string nm,.string ⟨t.text.toArray⟩,.slice ad len cap,.bool t.self] 33))
  clear hK hnm hnm2 h hk HS
  go_enter Tryz.func27,Tryz.ntmps27
  go_wp2
  go_ret
  exact ⟨rfl,A1.out⟩
end Go.Proofs.YtajpoodpbbbkfaaGreatDoor
namespace Go.Proofs.YtajpoodpbbbkfaaGreatDoor
open Go.RowKit Go.Lib
theorem Jf (nm:ByteArray) (h:∀p∈eg,p.1≠nm.data.toList):((nm.toList==[116,105,116,108,101])=false)∧((nm.toList==[116,101,120,116,97,114,101,97])=false)∧((nm.toList==[115,116,121,108,101])=false)∧((nm.toList==[120,109,112])=false)∧((nm.toList==[105,102,114,97,109,101])=false)∧((nm.toList==[110,111,101,109,98,101,100])=false)∧((nm.toList==[110,111,102,114,97,109,101,115])=false)∧((nm.toList==[110,111,115,99,114,105,112,116])=false)∧((nm.toList==[115,99,114,105,112,116])=false)∧((nm.toList==[112,108,97,105,110,116,101,120,116])=false):=by
 have hk:∀p∈eg,(nm.toList==p.1)=false:=fun p hp=>by
  rw [beq_eq_false_iff_ne,ByteArray.toList_eq];exact fun e=>h p hp e.symm
 exact ⟨hk ([116,105,116,108,101],1) (by simp [eg]),hk ([116,101,120,116,97,114,101,97],1) (by simp [eg]),hk ([115,116,121,108,101],2) (by simp [eg]),hk ([120,109,112],2) (by simp [eg]),hk ([105,102,114,97,109,101],2) (by simp [eg]),hk ([110,111,101,109,98,101,100],2) (by simp [eg]),hk ([110,111,102,114,97,109,101,115],2) (by simp [eg]),hk ([110,111,115,99,114,105,112,116],2) (by simp [eg]),hk ([115,99,114,105,112,116],3) (by simp [eg]),hk ([112,108,97,105,110,116,101,120,116],4) (by simp [eg])⟩
theorem sU (nm:ByteArray) (w:World):Calls Tryz.prog 80 #[.string nm] w fun e w'=>e= .returned (.int .i64 (dx nm.data.toList))∧w'=w:=by
 rcases oO nm.data.toList with ⟨p,hp,h1,h2⟩|⟨hn,h2⟩
 ·rw [h2]
  have hnm:nm=⟨p.1.toArray⟩:=bl (by rw [List.toList_toArray];exact h1.symm)
  subst hnm
  clear h1 h2
  simp only [eg,List.mem_cons,List.not_mem_nil,or_false] at hp
  rcases hp with rfl|rfl|rfl|rfl|rfl|rfl|rfl|rfl|rfl|rfl
  all_goals
   go_enter Tryz.func80,Tryz.ntmps80
   go_wp2
   go_ret
   exact ⟨rfl,rfl⟩
 ·rw [h2]
  obtain ⟨e1,e2,e3,e4,e5,e6,e7,e8,e9,e10⟩:=Jf nm hn
  clear hn h2
  go_enter Tryz.func80,Tryz.ntmps80
  go_wp2
  go_ret
  exact ⟨rfl,rfl⟩
end Go.Proofs.YtajpoodpbbbkfaaGreatDoor
