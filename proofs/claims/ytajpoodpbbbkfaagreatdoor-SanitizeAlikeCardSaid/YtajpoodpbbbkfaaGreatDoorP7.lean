/-
  Texts laid together: AttMath, AttScan, AttAdd, AttRef, AttEnds, AttOne, AttKnow, AttCode, AttGood, AttRead.
-/
import Derived.Test.YtajpoodpbbbkfaaGreatDoorP4
import Derived.Test.YtajpoodpbbbkfaaGreatDoorP6
import Derived.Test.YtajpoodpbbbkfaaGreatDoorP3
import Derived.Test.YtajpoodpbbbkfaaGreatDoorP1
import Derived.Test.YtajpoodpbbbkfaaGreatDoorPT
import Derived.Maps.OwnOps
import Derived.Maps.Views
import Derived.ProofKit
import Derived.WalkKit
set_option maxHeartbeats 16000000
set_option maxRecDepth 100000
namespace Go.Proofs.YtajpoodpbbbkfaaGreatDoor
open Go.RowKit Go.Lib
def cv (c:UInt8):Bool:=cG (c.toNat:Int)
def aP (name:ab):ab:=ap (aF name)
noncomputable def qB (val:ab):ab:=ap (dQ true val)
noncomputable def gp (l:List Ln) (name val:ab):List Ln:=if l.any (fun r=>r.1==aP name) then l else l++[(aP name,qB val)]
inductive At where
 |s0 (l:List Ln)
 |s1 (l:List Ln) (name:ab)
 |s2 (l:List Ln) (name:ab)
 |s3 (l:List Ln) (name:ab)
 |s4 (l:List Ln) (name val:ab) (q:UInt8)
 |s5 (l:List Ln) (name val:ab)
inductive BE where
 |more (a:At)
 |done (l:List Ln) (self:Bool) (n:Nat)
def q7 (c:UInt8):Bool:=cv c||c==47||c==62||c==61
def E8 (l:List Ln) (c:UInt8) (t:ab):BE:=
 if cv c then .more (.s0 l) else if c=62 then .done l false 1
 else if c=47 then (if t.head?=some 62 then .done l true 2 else .more (.s0 l))
 else .more (.s1 l [c])
noncomputable def OQ (l:List Ln) (name:ab) (c:UInt8) (t:ab):BE:=
 if cv c then .more (.s2 l name) else if c=61 then .more (.s3 l name) else E8 (gp l name []) c t
noncomputable def O5 (l:List Ln) (name:ab) (c:UInt8) (t:ab):BE:=if q7 c then OQ l name c t else .more (.s1 l (name++[c]))
noncomputable def Ob (l:List Ln) (name val:ab) (c:UInt8) (t:ab):BE:=if cv c||c==62 then E8 (gp l name val) c t else .more (.s5 l name (val++[c]))
noncomputable def O7 (l:List Ln) (name:ab) (c:UInt8) (t:ab):BE:=
 if cv c then .more (.s3 l name) else if c=34∨c=39 then .more (.s4 l name [] c) else if c=62 then E8 (gp l name []) c t else Ob l name [] c t
noncomputable def Py (l:List Ln) (name val:ab) (q c:UInt8):BE:=if c=q then .more (.s0 (gp l name val)) else .more (.s4 l name (val++[c]) q)
noncomputable def kP:At→UInt8→ab→BE
 | .s0 l,c,t=>E8 l c t
 | .s1 l name,c,t=>O5 l name c t
 | .s2 l name,c,t=>OQ l name c t
 | .s3 l name,c,t=>O7 l name c t
 | .s4 l name val q,c,_=>Py l name val q c
 | .s5 l name val,c,t=>Ob l name val c t
abbrev mR:=List Ln × Bool × Nat
def ue (k:Nat) (r:mR):mR:=(r.1,r.2.1,r.2.2+k)
noncomputable def eW:At→ab→Option mR
 |_,[]=>none
 |a,c::t=>match kP a c t with
  | .done l self n=>some (l,self,n)
  | .more a'=>(eW a' t).map (ue 1)
theorem dA (a:At):eW a []=none:=by cases a<;>rfl
theorem ey {a a':At} {c:UInt8} {t:ab} (h:kP a c t= .more a'):eW a (c::t)=(eW a' t).map (ue 1):=by
 rw [eW,h]
theorem y9 {a:At} {c:UInt8} {t:ab} {l:List Ln} {self:Bool} {n:Nat} (h:kP a c t= .done l self n):eW a (c::t)=some (l,self,n):=by
 rw [eW,h]
theorem jH {a b:At} {c:UInt8} {t:ab} (h:kP a c t=kP b c t):eW a (c::t)=eW b (c::t):=by
 rw [eW,eW,h]
noncomputable def eT (i:Nat) (a:At) (t:ab):Option mR:=(eW a t).map (ue i)
theorem LA (i:Nat) (r:Option mR):(r.map (ue 1)).map (ue i)=r.map (ue (i+1)):=by
 cases r with
 |none=>rfl
 |some r=>simp [ue];omega
theorem pH {i:Nat} {a a':At} {c:UInt8} {t:ab} {T:Option mR} (h:kP a c t= .more a') (hT:eT i a (c::t)=T):eT (i+1) a' t=T:=by
 unfold eT at hT⊢
 rw [ey h,LA] at hT
 exact hT
theorem pI {i:Nat} {a:At} {c:UInt8} {t:ab} {l:List Ln} {self:Bool} {n:Nat} {T:Option mR} (h:kP a c t= .done l self n) (hT:eT i a (c::t)=T):T=some (l,self,i+n):=by
 unfold eT at hT
 rw [y9 h] at hT
 rw [←hT];simp [ue];omega
theorem E9 {i:Nat} {a b:At} {c:UInt8} {t:ab} {T:Option mR} (h:kP a c t=kP b c t) (hT:eT i a (c::t)=T):eT i b (c::t)=T:=by
 unfold eT at hT⊢
 rw [←jH h];exact hT
theorem za {i:Nat} {a:At} {T:Option mR} (hT:eT i a []=T):T=none:=by
 unfold eT at hT;rw [dA] at hT;exact hT.symm
noncomputable def lz (s:ab) (a:Int):List Ln × Bool × Int × Bool:=
 if 0≤a∧a≤(s.length:Int) then match eT a.toNat (.s0 []) (s.drop a.toNat) with
  |none=>([],false,(s.length:Int),false)
  |some (l,self,n)=>(l,self,(n:Int),true)
 else ([],false,a,false)
theorem mi (s:ab) (a:Int) (h:¬(0≤a∧a≤(s.length:Int))):lz s a=([],false,a,false):=if_neg h
theorem nu (s:ab) (k:Nat) (h:k≤s.length) (hT:eT k (.s0 []) (s.drop k)=none):lz s (k:Int)=([],false,(s.length:Int),false):=by
 unfold lz
 rw [if_pos ⟨by omega,by omega⟩,show ((k:Nat):Int).toNat=k by omega,hT]
theorem nv (s:ab) (k:Nat) (h:k≤s.length) (l:List Ln) (self:Bool) (n:Nat) (hT:eT k (.s0 []) (s.drop k)=some (l,self,n)):lz s (k:Int)=(l,self,(n:Int),true):=by
 unfold lz
 rw [if_pos ⟨by omega,by omega⟩,show ((k:Nat):Int).toNat=k by omega,hT]
theorem ol (l:List Ln) (name val:ab):(gp l name val).length≤l.length+1:=by
 unfold gp;split
 ·omega
 ·simp
theorem vl {l:List Ln} {c:UInt8} {t:ab} (h:cv c=true):kP (.s0 l) c t= .more (.s0 l):=if_pos h
theorem DG {l:List Ln} {c:UInt8} {t:ab} (h:c=62):kP (.s0 l) c t= .done l false 1:=by subst h;rfl
theorem zb {l:List Ln} {c:UInt8} {t:ab} (h:c=47) (ht:t.head?=some 62):kP (.s0 l) c t= .done l true 2:=by
 subst h
 show E8 l 47 t=_
 unfold E8
 rw [if_neg (by decide),if_neg (by decide),if_pos rfl,if_pos ht]
theorem nw {l:List Ln} {c:UInt8} {t:ab} (h:c=47) (ht:t.head?≠some 62):kP (.s0 l) c t= .more (.s0 l):=by
 subst h
 show E8 l 47 t=_
 unfold E8
 rw [if_neg (by decide),if_neg (by decide),if_pos rfl,if_neg ht]
theorem zc {l:List Ln} {c:UInt8} {t:ab} (h:cv c=false) (h1:c≠62) (h2:c≠47):kP (.s0 l) c t= .more (.s1 l [c]):=by
 show E8 l c t=_
 unfold E8
 rw [h,if_neg Bool.false_ne_true,if_neg h1,if_neg h2]
theorem om {l:List Ln} {name:ab} {c:UInt8} {t:ab} (h:q7 c=true):kP (.s1 l name) c t=kP (.s2 l name) c t:=if_pos h
theorem ze {l:List Ln} {name:ab} {c:UInt8} {t:ab} (h:q7 c=false):kP (.s1 l name) c t= .more (.s1 l (name++[c])):=by
 show O5 l name c t=_
 unfold O5;rw [h];rfl
theorem vm {l:List Ln} {name:ab} {c:UInt8} {t:ab} (h:cv c=true):kP (.s2 l name) c t= .more (.s2 l name):=if_pos h
theorem Iv {l:List Ln} {name:ab} {c:UInt8} {t:ab} (h:c=61):kP (.s2 l name) c t= .more (.s3 l name):=by subst h;rfl
theorem zf {l:List Ln} {name:ab} {c:UInt8} {t:ab} (h:cv c=false) (h1:c≠61):kP (.s2 l name) c t=kP (.s0 (gp l name [])) c t:=by
 show OQ l name c t=E8 _ c t
 unfold OQ;rw [h,if_neg Bool.false_ne_true,if_neg h1]
theorem vp {l:List Ln} {name:ab} {c:UInt8} {t:ab} (h:cv c=true):kP (.s3 l name) c t= .more (.s3 l name):=if_pos h
theorem pJ {l:List Ln} {name:ab} {c:UInt8} {t:ab} (h:c=34∨c=39):kP (.s3 l name) c t= .more (.s4 l name [] c):=by
 rcases h with rfl|rfl<;>rfl
theorem DH {l:List Ln} {name:ab} {c:UInt8} {t:ab} (h:c=62):kP (.s3 l name) c t=kP (.s0 (gp l name [])) c t:=by subst h;rfl
theorem zh {l:List Ln} {name:ab} {c:UInt8} {t:ab} (h:cv c=false) (h1:¬(c=34∨c=39)) (h2:c≠62):kP (.s3 l name) c t=kP (.s5 l name []) c t:=by
 show O7 l name c t=Ob l name [] c t
 unfold O7;rw [h,if_neg Bool.false_ne_true,if_neg h1,if_neg h2]
theorem DJ {l:List Ln} {name val:ab} {q c:UInt8} {t:ab} (h:c=q):kP (.s4 l name val q) c t= .more (.s0 (gp l name val)):=if_pos h
theorem zi {l:List Ln} {name val:ab} {q c:UInt8} {t:ab} (h:c≠q):kP (.s4 l name val q) c t= .more (.s4 l name (val++[c]) q):=if_neg h
theorem xb {l:List Ln} {name val:ab} {c:UInt8} {t:ab} (h:(cv c||c==62)=true):kP (.s5 l name val) c t=kP (.s0 (gp l name val)) c t:=if_pos h
theorem zj {l:List Ln} {name val:ab} {c:UInt8} {t:ab} (h:(cv c||c==62)=false):kP (.s5 l name val) c t= .more (.s5 l name (val++[c])):=by
 show Ob l name val c t=_
 unfold Ob;rw [h];rfl
end Go.Proofs.YtajpoodpbbbkfaaGreatDoor
namespace Go.Proofs.YtajpoodpbbbkfaaGreatDoor
open Go.RowKit Go.Lib
def eA (c:UInt8):Bool:= !(cv c||c==62)
def bd (c:UInt8):Bool:= !q7 c
theorem xd (p:UInt8→Bool) (l:ab):l.take (l.takeWhile p).length=l.takeWhile p:=by
 conv=>lhs;arg 2;rw [←List.takeWhile_append_dropWhile (p:=p) (l:=l)]
 exact List.take_left
theorem kB (p:UInt8→Bool) (l:ab):l.drop (l.takeWhile p).length=l.dropWhile p:=by
 conv=>lhs;arg 2;rw [←List.takeWhile_append_dropWhile (p:=p) (l:=l)]
 exact List.drop_left
theorem zl (p:UInt8→Bool) (l:ab):(l.takeWhile p).length≤l.length:=(List.takeWhile_sublist p).length_le
theorem ny {p:UInt8→Bool} {c:UInt8} {t:ab} (h:p c=true):(c::t).takeWhile p=c::t.takeWhile p:=by rw [List.takeWhile_cons,if_pos h]
theorem qC {p:UInt8→Bool} {c:UInt8} {t:ab} (h:p c=false):(c::t).takeWhile p=[]:=by rw [List.takeWhile_cons,h];rfl
theorem pL {p:UInt8→Bool} {c:UInt8} {t:ab} (h:p c=true):(c::t).dropWhile p=t.dropWhile p:=by rw [List.dropWhile_cons,if_pos h]
theorem vq {p:UInt8→Bool} {c:UInt8} {t:ab} (h:p c=false):(c::t).dropWhile p=c::t:=by rw [List.dropWhile_cons,h];rfl
theorem ru (p:UInt8→Bool):∀(l:ab) (c:UInt8) (t:ab),l.dropWhile p=c::t→p c=false
 |[],c,t,h=>by simp at h
 |d::l,c,t,h=>by
  cases hp:p d
  ·rw [vq hp] at h
   injection h with h1 h2
   rw [←h1];exact hp
  ·rw [pL hp] at h;exact ru p l c t h
theorem fe (a b:Nat) (r:Option mR):(r.map (ue a)).map (ue b)=r.map (ue (a+b)):=by
 cases r with
 |none=>rfl
 |some r=>simp [ue,Nat.add_assoc]
theorem oo (r:Option mR):r.map (ue 0)=r:=by
 cases r<;>rfl
theorem Nk (l:List Ln):∀(t nm:ab),eW (.s1 l nm) t=(eW (.s2 l (nm++t.takeWhile bd)) (t.dropWhile bd)).map (ue (t.takeWhile bd).length)
 |[],nm=>by rw [List.dropWhile_nil,dA,dA];rfl
 |c::t,nm=>by
  cases h:q7 c
  ·have hn:bd c=true:=by unfold bd;rw [h];rfl
   rw [ey (ze h),Nk l t (nm++[c]),ny hn,pL hn,fe,List.append_assoc,List.length_cons];rfl
  ·have hn:bd c=false:=by unfold bd;rw [h];rfl
   rw [qC hn,vq hn,List.append_nil,jH (om h)];exact (oo _).symm
theorem Nl (l:List Ln) (nm:ab):∀t:ab,eW (.s2 l nm) t=(eW (.s2 l nm) (t.dropWhile cv)).map (ue (t.takeWhile cv).length)
 |[]=>by rw [List.dropWhile_nil,dA];rfl
 |c::t=>by
  cases h:cv c
  ·rw [qC h,vq h];exact (oo _).symm
  ·rw [ey (vm h),Nl l nm t,ny h,pL h,fe];rfl
theorem Nm (l:List Ln) (nm:ab):∀t:ab,eW (.s3 l nm) t=(eW (.s3 l nm) (t.dropWhile cv)).map (ue (t.takeWhile cv).length)
 |[]=>by rw [List.dropWhile_nil,dA];rfl
 |c::t=>by
  cases h:cv c
  ·rw [qC h,vq h];exact (oo _).symm
  ·rw [ey (vp h),Nm l nm t,ny h,pL h,fe];rfl
theorem Nn (l:List Ln) (nm:ab):∀(t v:ab),eW (.s5 l nm v) t=(eW (.s0 (gp l nm (v++t.takeWhile eA))) (t.dropWhile eA)).map (ue (t.takeWhile eA).length)
 |[],v=>by rw [List.dropWhile_nil,dA,dA];rfl
 |c::t,v=>by
  cases h:(cv c||c==62)
  ·have hn:eA c=true:=by unfold eA;rw [h];rfl
   rw [ey (zj h),Nn l nm t (v++[c]),ny hn,pL hn,fe,List.append_assoc,List.length_cons];rfl
  ·have hn:eA c=false:=by unfold eA;rw [h];rfl
   rw [qC hn,vq hn,List.append_nil,jH (xb h)];exact (oo _).symm
theorem Np (l : List Ln) (nm : ab) (q : UInt8) : ∀ (t v : ab), eW (.s4 l nm v q) t = (eW (.s0 (gp l nm (v ++ t.takeWhile (· != q)))) ((t.dropWhile (· != q)).tail)).map (ue ((t.takeWhile (· != q)).length + 1))
  | [], v => by rw [List.dropWhile_nil, dA, List.tail_nil, dA]; rfl
  | c :: t, v => by
    by_cases h : c = q
    · have hn : (c != q) = false := by simpa using h
      rw [qC (p := (· != q)) hn, vq (p := (· != q)) hn, List.append_nil, ey (DJ h), List.tail_cons]; rfl
    · have hn : (c != q) = true := by simpa using h
      rw [ey (zi h), Np l nm q t (v ++ [c]), ny (p := (· != q)) hn, pL (p := (· != q)) hn, fe, List.append_assoc, List.length_cons]; rfl
def gQ : ab → ab × Nat
  | [] => ([], 0)
  | c :: t => if c = 34 ∨ c = 39 then (t.takeWhile (· != c), (c :: t).length - ((t.dropWhile (· != c)).tail).length)
    else ((c :: t).takeWhile eA, ((c :: t).takeWhile eA).length)
def mS (l:ab):ab:=l.take 1++(l.drop 1).takeWhile bd
def Oc (r:ab) (k:Nat):ab × Nat:=
 if r.head?=some 61 then ((gQ ((r.drop 1).dropWhile cv)).1,k+1+((r.drop 1).takeWhile cv).length+(gQ ((r.drop 1).dropWhile cv)).2) else ([],k)
def gH (l:ab):ab × Nat:=
 Oc ((l.drop (mS l).length).dropWhile cv) ((mS l).length+((l.drop (mS l).length).takeWhile cv).length)
theorem jI (c : UInt8) (t : ab) : gQ (c :: t) = if c = 34 ∨ c = 39 then (t.takeWhile (· != c), (c :: t).length - ((t.dropWhile (· != c)).tail).length)
    else ((c :: t).takeWhile eA, ((c :: t).takeWhile eA).length) := rfl
theorem LC (l:ab):(gQ l).2≤l.length:=by
 cases l with
 |nil=>exact Nat.le_refl _
 |cons c t=>
  rw [jI]
  split
  ·exact Nat.sub_le _ _
  ·exact zl _ _
theorem Iw (l : ab) : (gQ l).1.length ≤ l.length := by
  cases l with
  | nil => exact Nat.le_refl _
  | cons c t =>
    rw [jI]
    split
    · have := zl (· != c) t
      simp only [List.length_cons]; omega
    · exact zl _ _
theorem Od (l:ab):(mS l).length≤l.length:=by
 cases l with
 |nil=>exact Nat.le_refl _
 |cons c t=>
  have:=zl bd t
  simp [mS];omega
theorem LD (l : List Ln) (nm t : ab) : eW (.s3 l nm) (t.dropWhile cv) = (eW (.s0 (gp l nm (gQ (t.dropWhile cv)).1)) ((t.dropWhile cv).drop (gQ (t.dropWhile cv)).2)).map (ue (gQ (t.dropWhile cv)).2) := by
  cases h : t.dropWhile cv with
  | nil => rw [dA, List.drop_nil, dA]; rfl
  | cons c r =>
    have hs := ru cv t c r h
    by_cases hq : c = 34 ∨ c = 39
    · have e : gQ (c :: r) = (r.takeWhile (· != c), (c :: r).length - ((r.dropWhile (· != c)).tail).length) := if_pos hq
      have hl : (r.takeWhile (· != c)).length + (r.dropWhile (· != c)).length = r.length := by rw [← List.length_append, List.takeWhile_append_dropWhile]
      have ht := List.length_tail (l := r.dropWhile (· != c))
      rw [e, ey (pJ hq), Np, List.nil_append, fe]
      simp only
      cases hd : r.dropWhile (· != c) with
      | nil =>
        rw [hd] at hl
        rw [List.tail_nil, dA, List.length_nil, List.drop_eq_nil_of_le (Nat.le_of_eq (Nat.sub_zero _).symm), dA]; rfl
      | cons d z =>
        rw [hd] at hl
        rw [List.tail_cons, List.length_cons]
        rw [List.length_cons] at hl
        rw [show r.length + 1 - z.length = (r.takeWhile (· != c)).length + 1 + 1 by omega, List.drop_succ_cons, ← List.drop_drop, kB, hd]; rfl
    · by_cases h62 : c = 62
      · have hv : eA c = false := by rw [h62]; decide
        have e : gQ (c :: r) = ([], 0) := by rw [jI, if_neg hq, qC hv]; rfl
        rw [e, jH (DH h62), List.drop_zero]; exact (oo _).symm
      · have e : gQ (c :: r) = ((c :: r).takeWhile eA, ((c :: r).takeWhile eA).length) := if_neg hq
        rw [e, jH (zh hs hq h62), Nn, List.nil_append]
        simp only
        rw [kB]
def Ix (c:UInt8):Bool:= !(cv c||c==62||c==47)
theorem LE (l:List Ln) (c:UInt8) (t:ab) (h:Ix c=true):eW (.s0 l) (c::t)=(eW (.s0 (gp l (mS (c::t)) (gH (c::t)).1)) ((c::t).drop (gH (c::t)).2)).map (ue (gH (c::t)).2):=by
 have hb:cv c=false∧c≠62∧c≠47:=by
  unfold Ix at h
  cases hs:cv c<;>rw [hs] at h<;>simp at h
  exact ⟨rfl,h.1,h.2⟩
 have en:mS (c::t)=c::t.takeWhile bd:=rfl
 have el:(mS (c::t)).length=(t.takeWhile bd).length+1:=by rw [en];rfl
 have ed:(c::t).drop (mS (c::t)).length=t.dropWhile bd:=by rw [el,List.drop_succ_cons,kB]
 rw [ey (zc hb.1 hb.2.1 hb.2.2),Nk,Nl,fe,fe,List.cons_append,List.nil_append]
 obtain ⟨N,hN⟩:∃N,mS (c::t)=N:=⟨_,rfl⟩
 obtain ⟨r,hr⟩:∃r,(t.dropWhile bd).dropWhile cv=r:=⟨_,rfl⟩
 obtain ⟨K,hK⟩:∃K,((t.dropWhile bd).takeWhile cv).length+((t.takeWhile bd).length+1)=K:=⟨_,rfl⟩
 have hdr:(c::t).drop K=r:=by
  rw [←hK,show ((t.dropWhile bd).takeWhile cv).length+((t.takeWhile bd).length+1)=(mS (c::t)).length+((t.dropWhile bd).takeWhile cv).length by rw [el];omega,←List.drop_drop,ed,kB,hr]
 have ea:gH (c::t)=if r.head?=some 61 then ((gQ ((r.drop 1).dropWhile cv)).1,K+1+((r.drop 1).takeWhile cv).length+(gQ ((r.drop 1).dropWhile cv)).2) else ([],K):=by
  unfold gH
  rw [ed,hr,show (mS (c::t)).length+((t.dropWhile bd).takeWhile cv).length=K by rw [el];omega]
  rfl
 rw [show (c::t.takeWhile bd)=N by rw [←hN,en],hN,hr,hK,ea]
 cases r with
 |nil=>rw [if_neg (by simp),dA];simp only;rw [hdr,dA]
 |cons d z=>
  have hs:=ru cv _ d z hr
  by_cases h61:d=61
  ·rw [if_pos (by rw [h61];rfl),List.drop_one,List.tail_cons,ey (Iv h61),Nm,fe,fe,LD,fe]
   simp only
   rw [show (c::t).drop (K+1+(z.takeWhile cv).length+(gQ (z.dropWhile cv)).2)=(z.dropWhile cv).drop (gQ (z.dropWhile cv)).2 by
    rw [←List.drop_drop,←List.drop_drop,←List.drop_drop,hdr,List.drop_one,List.tail_cons,kB]]
   rw [show (gQ (z.dropWhile cv)).2+((z.takeWhile cv).length+(1+K))=K+1+(z.takeWhile cv).length+(gQ (z.dropWhile cv)).2 by omega]
  ·rw [if_neg (by intro h;injection h with h;exact h61 h),jH (zf hs h61)]
   simp only
   rw [hdr]
theorem zm (c:UInt8) (t:ab):1≤(gH (c::t)).2∧(gH (c::t)).2≤(c::t).length∧(gH (c::t)).1.length≤(c::t).length:=by
 have en:mS (c::t)=c::t.takeWhile bd:=rfl
 have el:(mS (c::t)).length=(t.takeWhile bd).length+1:=by rw [en];rfl
 have ed:(c::t).drop (mS (c::t)).length=t.dropWhile bd:=by rw [el,List.drop_succ_cons,kB]
 have h1:(t.takeWhile bd).length+(t.dropWhile bd).length=t.length:=by rw [←List.length_append,List.takeWhile_append_dropWhile]
 have h2:((t.dropWhile bd).takeWhile cv).length+((t.dropWhile bd).dropWhile cv).length=(t.dropWhile bd).length:=by rw [←List.length_append,List.takeWhile_append_dropWhile]
 unfold gH
 rw [ed,el]
 unfold Oc
 split
 ·rename_i hh
  obtain ⟨r,hr⟩:∃r,(t.dropWhile bd).dropWhile cv=r:=⟨_,rfl⟩
  rw [hr] at hh h2⊢
  cases r with
  |nil=>simp at hh
  |cons d z=>
   have h3:(z.takeWhile cv).length+(z.dropWhile cv).length=z.length:=by rw [←List.length_append,List.takeWhile_append_dropWhile]
   have h4:=LC (z.dropWhile cv)
   have h5:=Iw (z.dropWhile cv)
   simp only [List.drop_succ_cons,List.drop_zero,List.length_cons] at*
   omega
 ·simp only [List.length_cons,List.length_nil]
  omega
end Go.Proofs.YtajpoodpbbbkfaaGreatDoor
namespace Go.Proofs.YtajpoodpbbbkfaaGreatDoor
open Go.RowKit Go.Lib
theorem vr:(Tryz.prog.info? 151).map (fun i=>(i.zero,i.size,i.bytes))=some (some (.agg #[.string ⟨#[]⟩,.string ⟨#[]⟩]),2,32):=by kernel_rfl
theorem gq {w w':World} {base e size:Nat} {v:Value} {n:Nat} {xs:List Value} (h:w.ownsRow base e size v n xs) (hb:Below w.heap.size w w'):w'.ownsRow base e size v n xs:=
 h.kept (row:=none) ⟨hb.os,hb.tape,hb.output,hb.size,fun k hk _=>hb.block k hk⟩ (Classical.em _)
theorem LG (l:List Ln) (N:ab) (h:∀j (hj:j<l.length),l[j].1≠N):l.any (fun r=>r.1==N)=false:=by
 rw [List.any_eq_false]
 intro r hr
 obtain ⟨j,hj,rfl⟩:=List.getElem_of_mem hr
 simpa using h j hj
theorem Oe (l:List Ln) (N:ab) (j:Nat) (hj:j<l.length) (h:l[j].1=N):l.any (fun r=>r.1==N)=true:=by
 rw [List.any_eq_true]
 exact ⟨l[j],List.getElem_mem hj,by simpa using h⟩
theorem kC (base : Nat) (v : Value) (l : List Ln) (name val : ByteArray) (w : World) (hbase : base ≤ w.heap.size) (hown : w.ownsRow base 151 2 v l.length (fE l)) (hn : name.size ≤ 1048576) (hv : val.size ≤ 1048576) (hl : l.length ≤ 1048576) :
    Calls Tryz.prog 196 #[v, .string name, .string val] w fun e w' => ∃ v', e = .returned v' ∧ w'.ownsRow base 151 2 v' (gp l name.data.toList val.data.toList).length (fE (gp l name.data.toList val.data.toList)) ∧ Below base w w' := by
  obtain ⟨i0, hi0, hz0, hz1, hz2⟩ := info_parts vr
  obtain ⟨a, cap, rfl, hrows⟩ := iI l hown
  have HO := Lib.hid hown
  have HR := Lib.hid hrows
  have hA : ∀ o, gp l name.data.toList val.data.toList = o → Hid ((if l.any (fun r => r.1 == aP name.data.toList) then l else l ++ [(aP name.data.toList, qB val.data.toList)]) = o) := fun o h => Lib.hid h
  have HL := fun w => Lib.hid (nU name w (by omega))
  have HC := fun w => Lib.hid (bc (qV name) w (by rw [jw]; omega))
  have HD := fun w => Lib.hid (jq val true w (by omega))
  have hds : (⟨(dQ true val.data.toList).toArray⟩ : ByteArray).size ≤ 1099511627776 := by
    rw [Lib.size_eq, List.toList_toArray]
    have := lx true val.data.toList.length val.data.toList (Nat.le_refl _)
    rw [← Lib.size_eq] at this
    omega
  have HE := fun w => Lib.hid (bc ⟨(dQ true val.data.toList).toArray⟩ w hds)
  rw [fo] at HC
  rw [List.toList_toArray] at HE
  obtain ⟨Q, hQ⟩ : ∃ Q, gp l name.data.toList val.data.toList = Q := ⟨_, rfl⟩
  have HA := hA _ hQ
  rw [hQ]
  obtain ⟨N, hN⟩ : ∃ N, aP name.data.toList = N := ⟨_, rfl⟩
  obtain ⟨V, hV⟩ : ∃ V, qB val.data.toList = V := ⟨_, rfl⟩
  rw [hN, hV] at HA
  rw [show ap (aF name.data.toList) = N from hN] at HC
  rw [show ap (dQ true val.data.toList) = V from hV] at HE
  obtain ⟨D, hD⟩ : ∃ D : ByteArray, ⟨(dQ true val.data.toList).toArray⟩ = D := ⟨_, rfl⟩
  rw [hD] at HD HE
  clear hown hrows hA hQ hN hV hD hds
  go_enter Tryz.func196, Tryz.ntmps196
  go_wp2_with (fail)
  refine (HL _).out.mono ?_
  rintro e w1 ⟨rfl, b1⟩
  go_wp2_with (fail)
  refine (HC _).out.mono ?_
  rintro e w2 ⟨rfl, b2⟩
  have c2 := b1.trans (b2.mono b1.size)
  have hs2 := c2.size
  go_wp2
  go_loopw [8] (fun v wr => ∃ i : Nat, v = .int .i64 (i : Int) ∧ w2 = wr ∧ i ≤ l.length ∧ ∀ j (hj : j < l.length), j < i → l[j].1 ≠ N) (fun v _ => l.length - (ae v).toNat)
  case atStart => exact ⟨0, rfl, rfl, Nat.zero_le _, fun j _ h => by omega⟩
  case round =>
    obtain ⟨i, rfl, rfl, hi, hno⟩ := hrel
    by_cases hlt : i < l.length
    · obtain ⟨x, rfl, hc1, -⟩ := (HR.out.below c2 (Nat.le_refl _)).2.2.2 i hlt
      by_cases hk : l[i].1 = N
      · have e1 := Oe l N i hlt hk
        have HQ : Hid (l = Q) := Lib.hid (by have := HA.out; rwa [e1, if_pos rfl] at this)
        rw [hk] at hc1
        clear hno hk e1
        unfold fZ at hc1
        go_wp2
        go_ret
        exact ⟨_, rfl, by rw [← HQ.out]; exact gq HO.out c2, c2.mono hbase⟩
      · obtain ⟨K, hK⟩ : ∃ K, l[i].1 = K := ⟨_, rfl⟩
        have HNO := Lib.hid (show ∀ j (hj : j < l.length), j < i + 1 → l[j].1 ≠ N from fun j hj h => by
          rcases Nat.lt_or_ge j i with h2 | h2
          · exact hno j hj h2
          · have : j = i := by omega
            subst this; exact hk)
        have hb : (K == N) = false := by rw [beq_eq_false_iff_ne, ← hK]; exact hk
        rw [hK] at hc1
        clear hno hk hK
        unfold fZ at hc1
        go_wp2
        go_roundw
        case rel => exact ⟨i + 1, by go_num, trivial, by omega, HNO.out⟩
        case measure => simp [ae]; omega
    · have e1 := LG l N (fun j hj => hno j hj (by omega))
      have HQ : Hid (l ++ [(N, V)] = Q) := Lib.hid (by have := HA.out; rwa [e1, if_neg Bool.false_ne_true] at this)
      clear hno e1
      go_wp2_with (fail)
      refine (HD _).out.mono ?_
      rintro e w3 ⟨rfl, b3⟩
      have c3 := c2.trans (b3.mono c2.size)
      go_wp2_with (fail)
      refine (HE _).out.mono ?_
      rintro e w4 ⟨rfl, b4⟩
      have c4 := c3.trans (b4.mono c3.size)
      have HOW := Lib.hid (gq HO.out c4)
      have hs4 := c4.size
      go_wp2_with (at_builtin; refine wpList_append_own _ rfl _ _ 31 rfl base 151 i0 _ 2 32 Tryz.underlying31 hi0 hz0 hz1 hz2 rfl (by decide) _ l.length (fE l) rfl (HOW.out.alloc _) ⟨w4.heap.size, 0, none⟩ 1 1 [fZ N, fZ V] rfl rfl ?c1 ?c2 ?c3 ?c4 ?c5 ?_)
      case c1 => exact Dx _ _ _ _
      case c2 => intro u hu; simp at hu; rcases hu with rfl | rfl <;> rfl
      case c3 => simp [maxLen]; omega
      case c4 => omega
      case c5 => simp; omega
      intro v1 w5 hown1 hgr1 _
      have B5 : Below base w w5 := ((c4.mono hbase).alloc (by omega) _).grown hgr1 (by simp; omega) (fun k hk => (HO.out.lt k hk).1)
      rw [r5, HQ.out, show l.length + 1 = Q.length by rw [← HQ.out]; simp] at hown1
      clear hgr1
      have HB := Lib.hid B5
      have HW := Lib.hid hown1
      clear B5 hown1
      go_wp2
      go_ret
      exact ⟨_, rfl, HW.out, HB.out⟩
end Go.Proofs.YtajpoodpbbbkfaaGreatDoor
namespace Go.Proofs.YtajpoodpbbbkfaaGreatDoor
open Go.RowKit Go.Lib
theorem eM {s:ByteArray} {i:Nat} (h:i<s.size) {a a':At} {T:Option mR} (hg:kP a s[i] (s.data.toList.drop (i+1))= .more a') (hT:eT i a (s.data.toList.drop i)=T):eT (i+1) a' (s.data.toList.drop (i+1))=T:=by
 rw [aj s i h] at hT;exact pH hg hT
theorem DK {s:ByteArray} {i:Nat} (h:i<s.size) {a:At} {l:List Ln} {self:Bool} {n:Nat} {T:Option mR} (hg:kP a s[i] (s.data.toList.drop (i+1))= .done l self n) (hT:eT i a (s.data.toList.drop i)=T):T=some (l,self,i+n):=by
 rw [aj s i h] at hT;exact pI hg hT
theorem ig {s:ByteArray} {i:Nat} (h:i<s.size) {a b:At} {T:Option mR} (hg:kP a s[i] (s.data.toList.drop (i+1))=kP b s[i] (s.data.toList.drop (i+1))) (hT:eT i a (s.data.toList.drop i)=T):eT i b (s.data.toList.drop i)=T:=by
 rw [aj s i h] at hT⊢;exact E9 hg hT
theorem Of {s:ByteArray} {i:Nat} (h:¬i<s.size) {a:At} {T:Option mR} (hT:eT i a (s.data.toList.drop i)=T):T=none:=by
 rw [List.drop_eq_nil_of_le (by rw [←Lib.size_eq];omega)] at hT;exact za hT
theorem pM (s:ByteArray) (i:Nat):(s.data.toList.drop (i+1)).head?=if h:i+1<s.size then some s[i+1] else none:=by
 by_cases h:i+1<s.size
 ·rw [dif_pos h,aj s (i+1) h];rfl
 ·rw [dif_neg h,List.drop_eq_nil_of_le (by rw [←Lib.size_eq];omega)];rfl
theorem xe (s:ByteArray) (i:Nat) (h:i<s.size) (N:ByteArray):(N++s.extract i (i+1)).data.toList=N.data.toList++[s[i]]:=by
 rw [ByteArray.data_append,Array.toList_append,cr s i h]
theorem cI {fn:Func} {t u v x:Tmp} (h:fn.results=#[.tmp t,.tmp u,.tmp v,.tmp x]) (tmps:Array Value) (P:Program) (w:World):(results fn tmps).run P w= .ok (.tuple #[tmps.getD t undef,tmps.getD u undef,tmps.getD v undef,tmps.getD x undef]) w:=by
 simp [results,h]
def Nq (s:ByteArray) (a:Int) (w:World) (e:Ending) (w':World):Prop:=
 ∃ad len cap l self n ok,e= .returned (.tuple #[.slice ad len cap,.bool self,.int .i64 n,.bool ok])∧cf w' ad len cap l∧lz s.data.toList a=(l,self,n,ok)∧Below w.heap.size w w'∧∀k,(Value.slice ad len cap).ownBlock=some k→w.heap.size≤k
def gI (k:Int):Nat:=if k=1∨k=3 then 2 else if k=2∨k=5 then 1 else 0
theorem sq (s:ByteArray) (a:Int) (w:World) (hs:s.size≤1048576) (ha: -9223372036854775808≤a∧a≤9223372036854775807):Calls Tryz.prog 165 #[.string s,.int .i64 a] w (Nq s a w):=by
 by_cases h0:a<0
 ·have HV:=Lib.hid (mi s.data.toList a (by omega))
  go_enter Tryz.func165,Tryz.ntmps165
  go_wp2
  try simp only [Exit.inBlock,Exit.then]
  refine bodyPost_ret (cI rfl _ _ _) rfl ?_
  exact ⟨_,_,_,_,_,_,_,rfl,av _,HV.out,Below.refl _ _,fun k h=>by cases h⟩
 by_cases h1:(s.size:Int)<a
 ·have HV:=Lib.hid (mi s.data.toList a (by rw [←Lib.size_eq];omega))
  go_enter Tryz.func165,Tryz.ntmps165
  go_wp2
  try simp only [Exit.inBlock,Exit.then]
  refine bodyPost_ret (cI rfl _ _ _) rfl ?_
  exact ⟨_,_,_,_,_,_,_,rfl,av _,HV.out,Below.refl _ _,fun k h=>by cases h⟩
 obtain ⟨k,rfl⟩:∃k:Nat,a=k:=⟨a.toNat,by omega⟩
 have hk:k≤s.size:=by omega
 have HV0:=Lib.hid (fun h=>nu s.data.toList k (by rw [←Lib.size_eq];exact hk) h)
 have HV1:=Lib.hid (fun l self n h=>nv s.data.toList k (by rw [←Lib.size_eq];exact hk) l self n h)
 obtain ⟨T,hT⟩:∃T,eT k (.s0 []) (s.data.toList.drop k)=T:=⟨_,rfl⟩
 rw [hT] at HV0 HV1
 have HT:=Lib.hid hT
 clear hT h0 h1 ha
 have d0:decide ((k:Int)<0)=false:=decide_eq_false (by omega)
 have d1:decide (s.size<k)=false:=decide_eq_false (by omega)
 go_enter Tryz.func165,Tryz.ntmps165
 go_wp2
 clear d0 d1
 go_loopw [8,9,10,11,12,13] (fun v8 v9 v10 v11 v12 v13 wr=>∃(i:Nat) (N V:ByteArray) (q:UInt8) (l:List Ln),v10= .string N∧v11= .string V∧v12= .int .u8 (q.toNat:Int)∧v13= .int .i64 (i:Int)∧Below w.heap.size w wr∧i≤s.size∧N.size≤i∧V.size≤i∧wr.ownsRow w.heap.size 151 2 v8 l.length (fE l)∧l.length≤i∧(v9= .int .i64 0∧eT i (.s0 l) (s.data.toList.drop i)=T∨v9= .int .i64 1∧eT i (.s1 l N.data.toList) (s.data.toList.drop i)=T∧l.length+1≤i∨v9= .int .i64 2∧eT i (.s2 l N.data.toList) (s.data.toList.drop i)=T∧l.length+1≤i∨v9= .int .i64 3∧eT i (.s3 l N.data.toList) (s.data.toList.drop i)=T∧l.length+1≤i∨v9= .int .i64 4∧eT i (.s4 l N.data.toList V.data.toList q) (s.data.toList.drop i)=T∧l.length+1≤i∨v9= .int .i64 5∧eT i (.s5 l N.data.toList V.data.toList) (s.data.toList.drop i)=T∧l.length+1≤i)) (fun _ v9 _ _ _ v13 _=>3*(s.size-(ae v13).toNat)+gI (ae v9))
 case atStart=>exact ⟨k,⟨#[]⟩,⟨#[]⟩,0,[],rfl,rfl,rfl,rfl,Below.refl _ _,hk,Nat.zero_le _,Nat.zero_le _,World.ownsRow_nil _ _ _ _,Nat.zero_le _,.inl ⟨rfl,HT.out⟩⟩
 case round=>
  obtain ⟨i,N,V,q,l,rfl,rfl,rfl,rfl,hbw,hi,hN,hV,hown,hl,hst⟩:=hrel
  have hsz:=hbw.size
  have HO:=Lib.hid hown
  clear hown HT
  by_cases hlt:i<s.size
  ·have HSp:=fun w=>Lib.hid (nT ((s[i].toNat:Nat):Int) w)
   have hsp0:cv s[i]=cG ((s[i].toNat:Nat):Int):=rfl
   obtain ⟨sp,hsp⟩:∃sp,cG ((s[i].toNat:Nat):Int)=sp:=⟨_,rfl⟩
   rw [hsp] at HSp hsp0
   have HSP:=Lib.hid hsp0
   clear hsp hsp0
   rcases hst with ⟨rfl,hT⟩|⟨rfl,hT,hl1⟩|⟨rfl,hT,hl1⟩|⟨rfl,hT,hl1⟩|⟨rfl,hT,hl1⟩|⟨rfl,hT,hl1⟩
   ·cases sp
    focus
     by_cases h62:((s[i].toNat:Nat):Int)=62
    ·have HK:=Lib.hid (DK hlt (DG (aT _ 62 (by decide) h62)) hT)
     clear hT
     have b62:(((s[i].toNat:Nat):Int)==62)=true:=beq_iff_eq.2 h62
     clear h62
     obtain ⟨ad,cap,rfl,hrows⟩:=iI l HO.out
     have HRO:=Lib.hid hrows
     have HV:=Lib.hid (HV1.out _ _ _ HK.out)
     clear hrows
     go_wp2_with (go_at_call 164;refine (HSp _).out.mono ?_;rintro e w' ⟨rfl,rfl⟩)
     try simp only [Exit.inBlock,Exit.then]
     refine bodyPost_ret (cI rfl _ _ _) rfl ?_
     exact ⟨_,_,_,_,_,_,_,rfl,HRO.out,HV.out,hbw,fun k h=>(HO.out.lt k h).1⟩
    focus
     by_cases h47:((s[i].toNat:Nat):Int)=47
    focus
     by_cases hn:i+1<s.size
    focus
     by_cases hx:((s[i+1].toNat:Nat):Int)=62
    ·have HK:=Lib.hid (DK hlt (zb (aT _ 47 (by decide) h47) (by rw [pM,dif_pos hn];exact congrArg some (aT _ 62 (by decide) hx))) hT)
     clear hT
     have b62:(((s[i].toNat:Nat):Int)==62)=false:=beq_eq_false_iff_ne.2 h62
     have b47:(((s[i].toNat:Nat):Int)==47)=true:=beq_iff_eq.2 h47
     have bx:(((s[i+1].toNat:Nat):Int)==62)=true:=beq_iff_eq.2 hx
     clear h62 h47 hx
     obtain ⟨ad,cap,rfl,hrows⟩:=iI l HO.out
     have HRO:=Lib.hid hrows
     have HV:=Lib.hid (HV1.out _ _ _ HK.out)
     clear hrows
     go_wp2_with (go_at_call 164;refine (HSp _).out.mono ?_;rintro e w' ⟨rfl,rfl⟩)
     try simp only [Exit.inBlock,Exit.then]
     refine bodyPost_ret (cI rfl _ _ _) rfl ?_
     exact ⟨_,_,_,_,_,_,_,rfl,HRO.out,HV.out,hbw,fun k h=>(HO.out.lt k h).1⟩
    focus
     have HK:=Lib.hid (eM hlt (nw (aT _ 47 (by decide) h47) (by rw [pM,dif_pos hn];exact fun e=>eR _ 62 (by decide) hx (Option.some.inj e))) hT)
     clear hT
     have b62:(((s[i].toNat:Nat):Int)==62)=false:=beq_eq_false_iff_ne.2 h62
     have b47:(((s[i].toNat:Nat):Int)==47)=true:=beq_iff_eq.2 h47
     have bx:(((s[i+1].toNat:Nat):Int)==62)=false:=beq_eq_false_iff_ne.2 hx
     clear h62 h47 hx
    rotate_left
    focus
     have HK:=Lib.hid (eM hlt (nw (aT _ 47 (by decide) h47) (by rw [pM,dif_neg hn];exact fun e=>by cases e)) hT)
     clear hT
     have b62:(((s[i].toNat:Nat):Int)==62)=false:=beq_eq_false_iff_ne.2 h62
     have b47:(((s[i].toNat:Nat):Int)==47)=true:=beq_iff_eq.2 h47
     have bx:decide ((i:Int)+1<(s.size:Int))=false:=decide_eq_false (by omega)
     clear h62 h47 hn
    rotate_left
    ·have HK:=Lib.hid (eM hlt (zc HSP.out (eR _ 62 (by decide) h62) (eR _ 47 (by decide) h47)) hT)
     clear hT
     rw [←cr s i hlt] at HK
     have b62:(((s[i].toNat:Nat):Int)==62)=false:=beq_eq_false_iff_ne.2 h62
     have b47:(((s[i].toNat:Nat):Int)==47)=false:=beq_eq_false_iff_ne.2 h47
     clear h62 h47
     go_wp2_with (go_at_call 164;refine (HSp _).out.mono ?_;rintro e w' ⟨rfl,rfl⟩)
     go_roundw
     case rel=>exact ⟨i+1,s.extract i (i+1),V,q,l,rfl,rfl,rfl,by simp,hbw,by omega,by rw [ByteArray.size_extract];omega,by omega,HO.out,by omega,.inr (.inl ⟨rfl,HK.out,by omega⟩)⟩
     case measure=>simp [ae,gI];try omega
    focus
     have HK:=Lib.hid (eM hlt (vl HSP.out) hT)
     clear hT
    rotate_left
    all_goals
     go_wp2_with (go_at_call 164;refine (HSp _).out.mono ?_;rintro e w' ⟨rfl,rfl⟩)
     go_roundw
     case rel=>exact ⟨i+1,N,V,q,l,rfl,rfl,rfl,by simp,hbw,by omega,by omega,by omega,HO.out,by omega,.inl ⟨rfl,HK.out⟩⟩
     case measure=>simp [ae,gI];try omega
   ·cases sp
    focus
     by_cases h47:((s[i].toNat:Nat):Int)=47
    focus
     have HK:=Lib.hid (ig hlt (om (by unfold q7;rw [HSP.out,aT _ 47 (by decide) h47];rfl)) hT)
     clear hT
     have b47:(((s[i].toNat:Nat):Int)==47)=true:=beq_iff_eq.2 h47
     clear h47
    rotate_left
    focus
     by_cases h62:((s[i].toNat:Nat):Int)=62
    focus
     have HK:=Lib.hid (ig hlt (om (by unfold q7;rw [HSP.out,aT _ 62 (by decide) h62];rfl)) hT)
     clear hT
     have b47:(((s[i].toNat:Nat):Int)==47)=false:=beq_eq_false_iff_ne.2 h47
     have b62:(((s[i].toNat:Nat):Int)==62)=true:=beq_iff_eq.2 h62
     clear h47 h62
    rotate_left
    focus
     by_cases h61:((s[i].toNat:Nat):Int)=61
    focus
     have HK:=Lib.hid (ig hlt (om (by unfold q7;rw [HSP.out,aT _ 61 (by decide) h61];rfl)) hT)
     clear hT
     have b47:(((s[i].toNat:Nat):Int)==47)=false:=beq_eq_false_iff_ne.2 h47
     have b62:(((s[i].toNat:Nat):Int)==62)=false:=beq_eq_false_iff_ne.2 h62
     have b61:(((s[i].toNat:Nat):Int)==61)=true:=beq_iff_eq.2 h61
     clear h47 h62 h61
    rotate_left
    ·have e47:(s[i]==47)=false:=beq_eq_false_iff_ne.2 (eR _ 47 (by decide) h47)
     have e62:(s[i]==62)=false:=beq_eq_false_iff_ne.2 (eR _ 62 (by decide) h62)
     have e61:(s[i]==61)=false:=beq_eq_false_iff_ne.2 (eR _ 61 (by decide) h61)
     have he:q7 s[i]=false:=by unfold q7;rw [HSP.out,e47,e62,e61];rfl
     clear e47 e62 e61
     have HK:=Lib.hid (eM hlt (ze he) hT)
     clear hT
     rw [←xe s i hlt N] at HK
     have b47:(((s[i].toNat:Nat):Int)==47)=false:=beq_eq_false_iff_ne.2 h47
     have b62:(((s[i].toNat:Nat):Int)==62)=false:=beq_eq_false_iff_ne.2 h62
     have b61:(((s[i].toNat:Nat):Int)==61)=false:=beq_eq_false_iff_ne.2 h61
     clear h47 h62 h61 he
     have g1:¬9223372036854775807<N.size+(s.extract i (i+1)).size:=by rw [ByteArray.size_extract];omega
     go_wp2_with (go_at_call 164;refine (HSp _).out.mono ?_;rintro e w' ⟨rfl,rfl⟩)
     go_roundw
     case rel=>exact ⟨i+1,N++s.extract i (i+1),V,q,l,rfl,rfl,rfl,by simp,hbw,by omega,by rw [ByteArray.size_append,ByteArray.size_extract];omega,by omega,HO.out,by omega,.inr (.inl ⟨rfl,HK.out,by omega⟩)⟩
     case measure=>simp [ae,gI];try omega
    focus
     have HK:=Lib.hid (ig hlt (om (by unfold q7;rw [HSP.out];rfl)) hT)
     clear hT
    rotate_left
    all_goals
     go_wp2_with (go_at_call 164;refine (HSp _).out.mono ?_;rintro e w' ⟨rfl,rfl⟩)
     go_roundw
     case rel=>exact ⟨i,N,V,q,l,rfl,rfl,rfl,rfl,hbw,by omega,by omega,by omega,HO.out,by omega,.inr (.inr (.inl ⟨rfl,HK.out,by omega⟩))⟩
     case measure=>simp [ae,gI];try omega
   ·cases sp
    ·by_cases h61:((s[i].toNat:Nat):Int)=61
     ·have HK:=Lib.hid (eM hlt (Iv (aT _ 61 (by decide) h61)) hT)
      clear hT
      have b61:(((s[i].toNat:Nat):Int)==61)=true:=beq_iff_eq.2 h61
      clear h61
      go_wp2_with (go_at_call 164;refine (HSp _).out.mono ?_;rintro e w' ⟨rfl,rfl⟩)
      go_roundw
      case rel=>exact ⟨i+1,N,V,q,l,rfl,rfl,rfl,by simp,hbw,by omega,by omega,by omega,HO.out,by omega,.inr (.inr (.inr (.inl ⟨rfl,HK.out,by omega⟩)))⟩
      case measure=>simp [ae,gI];try omega
     ·have HK:=Lib.hid (ig hlt (zf HSP.out (eR _ 61 (by decide) h61)) hT)
      clear hT
      have b61:(((s[i].toNat:Nat):Int)==61)=false:=beq_eq_false_iff_ne.2 h61
      clear h61
      go_wp2_with (go_at_call 164;refine (HSp _).out.mono ?_;rintro e w' ⟨rfl,rfl⟩)
      refine (kC w.heap.size _ l N ⟨#[]⟩ _ hsz HO.out (by omega) (by decide) (by omega)).mono ?_
      rintro e w1 ⟨v1,rfl,ho1,b1⟩
      have hadd:=ol l N.data.toList []
      have HO1:=Lib.hid ho1
      have B1:=hbw.trans b1
      clear ho1
      go_wp2
      go_roundw
      case rel=>exact ⟨i,N,V,q,gp l N.data.toList [],rfl,rfl,rfl,rfl,B1,by omega,by omega,by omega,HO1.out,by omega,.inl ⟨rfl,HK.out⟩⟩
      case measure=>simp [ae,gI];try omega
    ·have HK:=Lib.hid (eM hlt (vm HSP.out) hT)
     clear hT
     go_wp2_with (go_at_call 164;refine (HSp _).out.mono ?_;rintro e w' ⟨rfl,rfl⟩)
     go_roundw
     case rel=>exact ⟨i+1,N,V,q,l,rfl,rfl,rfl,by simp,hbw,by omega,by omega,by omega,HO.out,by omega,.inr (.inr (.inl ⟨rfl,HK.out,by omega⟩))⟩
     case measure=>simp [ae,gI];try omega
   ·cases sp
    ·by_cases h34:((s[i].toNat:Nat):Int)=34
     ·have HK:=Lib.hid (eM hlt (pJ (.inl (aT _ 34 (by decide) h34))) hT)
      clear hT
      have b34:(((s[i].toNat:Nat):Int)==34)=true:=beq_iff_eq.2 h34
      clear h34
      go_wp2_with (go_at_call 164;refine (HSp _).out.mono ?_;rintro e w' ⟨rfl,rfl⟩)
      go_roundw
      case rel=>exact ⟨i+1,N,⟨#[]⟩,s[i],l,rfl,rfl,rfl,by simp,hbw,by omega,by omega,Nat.zero_le _,HO.out,by omega,.inr (.inr (.inr (.inr (.inl ⟨rfl,HK.out,by omega⟩))))⟩
      case measure=>simp [ae,gI];try omega
     ·by_cases h39:((s[i].toNat:Nat):Int)=39
      ·have HK:=Lib.hid (eM hlt (pJ (.inr (aT _ 39 (by decide) h39))) hT)
       clear hT
       have b34:(((s[i].toNat:Nat):Int)==34)=false:=beq_eq_false_iff_ne.2 h34
       have b39:(((s[i].toNat:Nat):Int)==39)=true:=beq_iff_eq.2 h39
       clear h34 h39
       go_wp2_with (go_at_call 164;refine (HSp _).out.mono ?_;rintro e w' ⟨rfl,rfl⟩)
       go_roundw
       case rel=>exact ⟨i+1,N,⟨#[]⟩,s[i],l,rfl,rfl,rfl,by simp,hbw,by omega,by omega,Nat.zero_le _,HO.out,by omega,.inr (.inr (.inr (.inr (.inl ⟨rfl,HK.out,by omega⟩))))⟩
       case measure=>simp [ae,gI];try omega
      ·by_cases h62:((s[i].toNat:Nat):Int)=62
       ·have HK:=Lib.hid (ig hlt (DH (aT _ 62 (by decide) h62)) hT)
        clear hT
        have b34:(((s[i].toNat:Nat):Int)==34)=false:=beq_eq_false_iff_ne.2 h34
        have b39:(((s[i].toNat:Nat):Int)==39)=false:=beq_eq_false_iff_ne.2 h39
        have b62:(((s[i].toNat:Nat):Int)==62)=true:=beq_iff_eq.2 h62
        clear h34 h39 h62
        go_wp2_with (go_at_call 164;refine (HSp _).out.mono ?_;rintro e w' ⟨rfl,rfl⟩)
        refine (kC w.heap.size _ l N ⟨#[]⟩ _ hsz HO.out (by omega) (by decide) (by omega)).mono ?_
        rintro e w1 ⟨v1,rfl,ho1,b1⟩
        have hadd:=ol l N.data.toList []
        have HO1:=Lib.hid ho1
        have B1:=hbw.trans b1
        clear ho1
        go_wp2
        go_roundw
        case rel=>exact ⟨i,N,⟨#[]⟩,q,gp l N.data.toList [],rfl,rfl,rfl,rfl,B1,by omega,by omega,Nat.zero_le _,HO1.out,by omega,.inl ⟨rfl,HK.out⟩⟩
        case measure=>simp [ae,gI];try omega
       ·have HK:=Lib.hid (ig hlt (zh HSP.out (by rintro (e|e);exact (eR _ 34 (by decide) h34) e;exact (eR _ 39 (by decide) h39) e) (eR _ 62 (by decide) h62)) hT)
        clear hT
        have b34:(((s[i].toNat:Nat):Int)==34)=false:=beq_eq_false_iff_ne.2 h34
        have b39:(((s[i].toNat:Nat):Int)==39)=false:=beq_eq_false_iff_ne.2 h39
        have b62:(((s[i].toNat:Nat):Int)==62)=false:=beq_eq_false_iff_ne.2 h62
        clear h34 h39 h62
        go_wp2_with (go_at_call 164;refine (HSp _).out.mono ?_;rintro e w' ⟨rfl,rfl⟩)
        go_roundw
        case rel=>exact ⟨i,N,⟨#[]⟩,q,l,rfl,rfl,rfl,rfl,hbw,by omega,by omega,Nat.zero_le _,HO.out,by omega,.inr (.inr (.inr (.inr (.inr (⟨rfl,HK.out,by omega⟩)))))⟩
        case measure=>simp [ae,gI];try omega
    ·have HK:=Lib.hid (eM hlt (vp HSP.out) hT)
     clear hT
     go_wp2_with (go_at_call 164;refine (HSp _).out.mono ?_;rintro e w' ⟨rfl,rfl⟩)
     go_roundw
     case rel=>exact ⟨i+1,N,⟨#[]⟩,q,l,rfl,rfl,rfl,by simp,hbw,by omega,by omega,Nat.zero_le _,HO.out,by omega,.inr (.inr (.inr (.inl ⟨rfl,HK.out,by omega⟩)))⟩
     case measure=>simp [ae,gI];try omega
   ·clear HSP
    by_cases hq:((s[i].toNat:Nat):Int)=(q.toNat:Int)
    ·have hq2:s[i]=q:=by rw [←UInt8.toNat_inj];omega
     have HK:=Lib.hid (eM hlt (DJ hq2) hT)
     clear hT
     have bq:(((s[i].toNat:Nat):Int)==(q.toNat:Int))=true:=beq_iff_eq.2 hq
     clear hq hq2
     go_wp2_with (go_at_call 164;refine (HSp _).out.mono ?_;rintro e w' ⟨rfl,rfl⟩)
     refine (kC w.heap.size _ l N V _ hsz HO.out (by omega) (by omega) (by omega)).mono ?_
     rintro e w1 ⟨v1,rfl,ho1,b1⟩
     have hadd:=ol l N.data.toList V.data.toList
     have HO1:=Lib.hid ho1
     have B1:=hbw.trans b1
     clear ho1
     go_wp2
     go_roundw
     case rel=>exact ⟨i+1,N,V,q,gp l N.data.toList V.data.toList,rfl,rfl,rfl,by simp,B1,by omega,by omega,by omega,HO1.out,by omega,.inl ⟨rfl,HK.out⟩⟩
     case measure=>simp [ae,gI];try omega
    ·have hq2:s[i]≠q:=fun e=>hq (by rw [e])
     have HK:=Lib.hid (eM hlt (zi hq2) hT)
     clear hT
     rw [←xe s i hlt V] at HK
     have bq:(((s[i].toNat:Nat):Int)==(q.toNat:Int))=false:=beq_eq_false_iff_ne.2 hq
     clear hq hq2
     have g1:¬9223372036854775807<V.size+(s.extract i (i+1)).size:=by rw [ByteArray.size_extract];omega
     go_wp2_with (go_at_call 164;refine (HSp _).out.mono ?_;rintro e w' ⟨rfl,rfl⟩)
     go_roundw
     case rel=>exact ⟨i+1,N,V++s.extract i (i+1),q,l,rfl,rfl,rfl,by simp,hbw,by omega,by omega,by rw [ByteArray.size_append,ByteArray.size_extract];omega,HO.out,by omega,.inr (.inr (.inr (.inr (.inl ⟨rfl,HK.out,by omega⟩))))⟩
     case measure=>simp [ae,gI];try omega
   ·cases sp
    focus
     by_cases h62:((s[i].toNat:Nat):Int)=62
    focus
     have HK:=Lib.hid (ig hlt (xb (by rw [aT _ 62 (by decide) h62];simp)) hT)
     clear hT
     have b62:(((s[i].toNat:Nat):Int)==62)=true:=beq_iff_eq.2 h62
     clear h62
    rotate_left
    ·have e62:(s[i]==62)=false:=beq_eq_false_iff_ne.2 (eR _ 62 (by decide) h62)
     have HK:=Lib.hid (eM hlt (zj (by rw [HSP.out,e62];rfl)) hT)
     clear hT
     clear e62
     rw [←xe s i hlt V] at HK
     have b62:(((s[i].toNat:Nat):Int)==62)=false:=beq_eq_false_iff_ne.2 h62
     clear h62
     have g1:¬9223372036854775807<V.size+(s.extract i (i+1)).size:=by rw [ByteArray.size_extract];omega
     go_wp2_with (go_at_call 164;refine (HSp _).out.mono ?_;rintro e w' ⟨rfl,rfl⟩)
     go_roundw
     case rel=>exact ⟨i+1,N,V++s.extract i (i+1),q,l,rfl,rfl,rfl,by simp,hbw,by omega,by omega,by rw [ByteArray.size_append,ByteArray.size_extract];omega,HO.out,by omega,.inr (.inr (.inr (.inr (.inr (⟨rfl,HK.out,by omega⟩)))))⟩
     case measure=>simp [ae,gI];try omega
    focus
     have HK:=Lib.hid (ig hlt (xb (by rw [HSP.out];rfl)) hT)
     clear hT
    rotate_left
    all_goals
     go_wp2_with (go_at_call 164;refine (HSp _).out.mono ?_;rintro e w' ⟨rfl,rfl⟩)
     refine (kC w.heap.size _ l N V _ hsz HO.out (by omega) (by omega) (by omega)).mono ?_
     rintro e w1 ⟨v1,rfl,ho1,b1⟩
     have hadd:=ol l N.data.toList V.data.toList
     have HO1:=Lib.hid ho1
     have B1:=hbw.trans b1
     clear ho1
     go_wp2
     go_roundw
     case rel=>exact ⟨i,N,V,q,gp l N.data.toList V.data.toList,rfl,rfl,rfl,rfl,B1,by omega,by omega,by omega,HO1.out,by omega,.inl ⟨rfl,HK.out⟩⟩
     case measure=>simp [ae,gI];try omega
  ·have hnone:T=none:=by
    rcases hst with ⟨-,hT⟩|⟨-,hT,-⟩|⟨-,hT,-⟩|⟨-,hT,-⟩|⟨-,hT,-⟩|⟨-,hT,-⟩
    all_goals exact Of hlt hT
   have HV:=Lib.hid (HV0.out hnone)
   rw [←Lib.size_eq] at HV
   have hge:(s.size:Int)≤(i:Int):=by omega
   clear hst hnone hlt
   go_wp2
   try simp only [Exit.inBlock,Exit.then]
   refine bodyPost_ret (cI rfl _ _ _) rfl ?_
   exact ⟨_,_,_,_,_,_,_,rfl,av _,HV.out,hbw,fun k h=>by cases h⟩
end Go.Proofs.YtajpoodpbbbkfaaGreatDoor
namespace Go.Proofs.YtajpoodpbbbkfaaGreatDoor
open Go.RowKit Go.Lib
theorem xg (c:UInt8) (q:Int) (h:(c.toNat:Int)=q):cG q=cv c:=by rw [←h];rfl
theorem oq (c:UInt8) (q:Int) (n:Nat) (hn:n<256) (h:(c.toNat:Int)=q):(q==(n:Int))=(c==UInt8.ofNat n):=by rw [←h];exact NN c n hn
theorem qD (c:UInt8) (q:Int) (w:World) (hq:(c.toNat:Int)=q):Calls Tryz.prog 209 #[.int .u8 q] w fun e w'=>e= .returned (.bool (eA c))∧w'=w:=by
 have hlt:=c.toNat_lt
 have HS:=fun w=>Lib.hid (yv q w (by omega) (by omega))
 have HV:Hid (eA c=(!cG q&& !(q==62))):=Lib.hid (by
  rw [xg c q hq,show (q==62)=(c==62) from oq c q 62 (by decide) hq]
  unfold eA;cases cv c<;>cases (c==62)<;>rfl)
 rw [HV.out]
 clear hq hlt HV
 cases hs:cG q
 ·rw [hs] at HS
  cases h62:(q==62)
  all_goals
   go_enter Tryz.func209,Tryz.ntmps209
   go_wp2_with (go_at_call 150;refine (HS _).out.mono ?_;rintro e w' ⟨rfl,rfl⟩)
   go_ret
   exact ⟨au (by simp [bne,h62]),rfl⟩
 ·rw [hs] at HS
  go_enter Tryz.func209,Tryz.ntmps209
  go_wp2_with (go_at_call 150;refine (HS _).out.mono ?_;rintro e w' ⟨rfl,rfl⟩)
  go_ret
  exact ⟨rfl,rfl⟩
theorem BF (c:UInt8) (q:Int) (w:World) (hq:(c.toNat:Int)=q):Calls Tryz.prog 182 #[.int .u8 q] w fun e w'=>e= .returned (.bool (bd c))∧w'=w:=by
 have HS:=fun w=>Lib.hid (qD c q w hq)
 have HV:Hid (bd c=(eA c&& !(q==47)&& !(q==61))):=Lib.hid (by
  rw [show (q==47)=(c==47) from oq c q 47 (by decide) hq,show (q==61)=(c==61) from oq c q 61 (by decide) hq]
  unfold bd q7 eA;cases cv c<;>cases (c==62)<;>cases (c==47)<;>cases (c==61)<;>rfl)
 rw [HV.out]
 clear hq HV
 cases hs:eA c
 ·rw [hs] at HS
  go_enter Tryz.func182,Tryz.ntmps182
  go_wp2_with (go_at_call 209;refine (HS _).out.mono ?_;rintro e w' ⟨rfl,rfl⟩)
  go_ret
  exact ⟨rfl,rfl⟩
 ·rw [hs] at HS
  cases h47:(q==47)
  all_goals
   have h47':(q != 47)= !(q==47):=rfl
   rw [h47] at h47'
   go_enter Tryz.func182,Tryz.ntmps182
   go_wp2_with (go_at_call 209;refine (HS _).out.mono ?_;rintro e w' ⟨rfl,rfl⟩)
   go_ret
   exact ⟨au (by first|rfl|simp [bne]),rfl⟩
theorem vt (c:UInt8) (q:Int) (w:World) (hq:(c.toNat:Int)=q):Calls Tryz.prog 150 #[.int .u8 q] w fun e w'=>e= .returned (.bool (cv c))∧w'=w:=by
 have hlt:=c.toNat_lt
 have:=yv q w (by omega) (by omega)
 rwa [xg c q hq] at this
def fM (p:UInt8→Bool) (l:ab) (i:Nat):Nat:=i+((l.drop i).takeWhile p).length
theorem rv (p:UInt8→Bool) (s:ByteArray) (i:Nat) (h:i<s.size) (hp:p s[i]=true):fM p s.data.toList i=fM p s.data.toList (i+1):=by
 unfold fM
 rw [aj s i h,ny hp,List.length_cons];omega
theorem xh (p:UInt8→Bool) (s:ByteArray) (i:Nat) (h:i<s.size) (hp:p s[i]=false):fM p s.data.toList i=i:=by
 unfold fM
 rw [aj s i h,qC hp];rfl
theorem rx (p:UInt8→Bool) (s:ByteArray):fM p s.data.toList s.size=s.size:=by
 unfold fM
 rw [List.drop_eq_nil_of_le (by rw [←Lib.size_eq];exact Nat.le_refl _)];rfl
theorem xi (p:UInt8→Bool) (s:ByteArray) (i:Nat) (h:i≤s.size):i≤fM p s.data.toList i∧fM p s.data.toList i≤s.size:=by
 have h1:=zl p (s.data.toList.drop i)
 rw [List.length_drop,←Lib.size_eq] at h1
 unfold fM
 omega
theorem zn (s:ByteArray) (a:Int) (i:Nat) (w:World) (hs:s.size≤1099511627776) (ha:(i:Int)=a) (hi:i≤s.size):Calls Tryz.prog 181 #[.string s,.int .i64 a,.func (.func 182) #[] #[]] w fun e w'=>e= .returned (.int .i64 (fM bd s.data.toList i:Int))∧w'=w:=by
 subst ha
 have HK:=fun c q w h=>Lib.hid (BF c q w h)
 obtain ⟨R,hR⟩:∃R,fM bd s.data.toList i=R:=⟨_,rfl⟩
 rw [hR]
 have HR:=Lib.hid hR
 clear hR
 go_enter Tryz.func181,Tryz.ntmps181
 go_wp2
 go_loopw [1] (fun v wr=>∃k:Nat,v= .int .i64 (k:Int)∧w=wr∧k≤s.size∧fM bd s.data.toList k=R) (fun v _=>s.size-(ae v).toNat)
 case atStart=>exact ⟨i,rfl,rfl,hi,HR.out⟩
 case round=>
  obtain ⟨k,rfl,rfl,hk,hR⟩:=hrel
  have HRR:=Lib.hid hR
  clear hR HR
  by_cases hlt:k<s.size
  ·cases hp:bd s[k]
   ·have hRk:=Lib.hid ((xh bd s k hlt hp).symm.trans HRR.out)
    have HC:=fun w=>Lib.hid (HK s[k] _ w rfl).out
    rw [hp] at HC
    clear hp HK HRR
    go_wp2_with (go_at_call 182;refine (HC _).out.mono ?_;rintro e w' ⟨rfl,rfl⟩)
    go_ret
    exact ⟨az (by rw [hRk.out]),rfl⟩
   ·have hRk:=Lib.hid ((rv bd s k hlt hp).symm.trans HRR.out)
    have HC:=fun w=>Lib.hid (HK s[k] _ w rfl).out
    rw [hp] at HC
    clear hp HK HRR
    go_wp2_with (go_at_call 182;refine (HC _).out.mono ?_;rintro e w' ⟨rfl,rfl⟩)
    go_roundw
    case rel=>exact ⟨k+1,by go_num,trivial,by omega,hRk.out⟩
    case measure=>simp [ae];omega
  ·have hke:k=s.size:=by omega
   have hRk:=Lib.hid ((rx bd s).symm.trans (hke▸HRR.out))
   clear HRR
   subst hke
   go_wp2
   go_ret
   exact ⟨az (by rw [hRk.out]),rfl⟩
theorem xj (s:ByteArray) (a:Int) (i:Nat) (w:World) (hs:s.size≤1099511627776) (ha:(i:Int)=a) (hi:i≤s.size):Calls Tryz.prog 181 #[.string s,.int .i64 a,.func (.func 209) #[] #[]] w fun e w'=>e= .returned (.int .i64 (fM eA s.data.toList i:Int))∧w'=w:=by
 subst ha
 have HK:=fun c q w h=>Lib.hid (qD c q w h)
 obtain ⟨R,hR⟩:∃R,fM eA s.data.toList i=R:=⟨_,rfl⟩
 rw [hR]
 have HR:=Lib.hid hR
 clear hR
 go_enter Tryz.func181,Tryz.ntmps181
 go_wp2
 go_loopw [1] (fun v wr=>∃k:Nat,v= .int .i64 (k:Int)∧w=wr∧k≤s.size∧fM eA s.data.toList k=R) (fun v _=>s.size-(ae v).toNat)
 case atStart=>exact ⟨i,rfl,rfl,hi,HR.out⟩
 case round=>
  obtain ⟨k,rfl,rfl,hk,hR⟩:=hrel
  have HRR:=Lib.hid hR
  clear hR HR
  by_cases hlt:k<s.size
  ·cases hp:eA s[k]
   ·have hRk:=Lib.hid ((xh eA s k hlt hp).symm.trans HRR.out)
    have HC:=fun w=>Lib.hid (HK s[k] _ w rfl).out
    rw [hp] at HC
    clear hp HK HRR
    go_wp2_with (go_at_call 209;refine (HC _).out.mono ?_;rintro e w' ⟨rfl,rfl⟩)
    go_ret
    exact ⟨az (by rw [hRk.out]),rfl⟩
   ·have hRk:=Lib.hid ((rv eA s k hlt hp).symm.trans HRR.out)
    have HC:=fun w=>Lib.hid (HK s[k] _ w rfl).out
    rw [hp] at HC
    clear hp HK HRR
    go_wp2_with (go_at_call 209;refine (HC _).out.mono ?_;rintro e w' ⟨rfl,rfl⟩)
    go_roundw
    case rel=>exact ⟨k+1,by go_num,trivial,by omega,hRk.out⟩
    case measure=>simp [ae];omega
  ·have hke:k=s.size:=by omega
   have hRk:=Lib.hid ((rx eA s).symm.trans (hke▸HRR.out))
   clear HRR
   subst hke
   go_wp2
   go_ret
   exact ⟨az (by rw [hRk.out]),rfl⟩
theorem ot (s:ByteArray) (a:Int) (i:Nat) (w:World) (hs:s.size≤1099511627776) (ha:(i:Int)=a) (hi:i≤s.size):Calls Tryz.prog 181 #[.string s,.int .i64 a,.func (.func 150) #[] #[]] w fun e w'=>e= .returned (.int .i64 (fM cv s.data.toList i:Int))∧w'=w:=by
 subst ha
 have HK:=fun c q w h=>Lib.hid (vt c q w h)
 obtain ⟨R,hR⟩:∃R,fM cv s.data.toList i=R:=⟨_,rfl⟩
 rw [hR]
 have HR:=Lib.hid hR
 clear hR
 go_enter Tryz.func181,Tryz.ntmps181
 go_wp2
 go_loopw [1] (fun v wr=>∃k:Nat,v= .int .i64 (k:Int)∧w=wr∧k≤s.size∧fM cv s.data.toList k=R) (fun v _=>s.size-(ae v).toNat)
 case atStart=>exact ⟨i,rfl,rfl,hi,HR.out⟩
 case round=>
  obtain ⟨k,rfl,rfl,hk,hR⟩:=hrel
  have HRR:=Lib.hid hR
  clear hR HR
  by_cases hlt:k<s.size
  ·cases hp:cv s[k]
   ·have hRk:=Lib.hid ((xh cv s k hlt hp).symm.trans HRR.out)
    have HC:=fun w=>Lib.hid (HK s[k] _ w rfl).out
    rw [hp] at HC
    clear hp HK HRR
    go_wp2_with (go_at_call 150;refine (HC _).out.mono ?_;rintro e w' ⟨rfl,rfl⟩)
    go_ret
    exact ⟨az (by rw [hRk.out]),rfl⟩
   ·have hRk:=Lib.hid ((rv cv s k hlt hp).symm.trans HRR.out)
    have HC:=fun w=>Lib.hid (HK s[k] _ w rfl).out
    rw [hp] at HC
    clear hp HK HRR
    go_wp2_with (go_at_call 150;refine (HC _).out.mono ?_;rintro e w' ⟨rfl,rfl⟩)
    go_roundw
    case rel=>exact ⟨k+1,by go_num,trivial,by omega,hRk.out⟩
    case measure=>simp [ae];omega
  ·have hke:k=s.size:=by omega
   have hRk:=Lib.hid ((rx cv s).symm.trans (hke▸HRR.out))
   clear HRR
   subst hke
   go_wp2
   go_ret
   exact ⟨az (by rw [hRk.out]),rfl⟩
end Go.Proofs.YtajpoodpbbbkfaaGreatDoor
namespace Go.Proofs.YtajpoodpbbbkfaaGreatDoor
open Go.RowKit Go.Lib
theorem DL (p:UInt8→Bool) (l:ab) (i:Nat):l.drop (fM p l i)=(l.drop i).dropWhile p:=by
 unfold fM;rw [←List.drop_drop,kB]
theorem Iy (l:ab) (h:∀c,l.head?=some c→¬(c=34∨c=39)):gQ l=(l.takeWhile eA,(l.takeWhile eA).length):=by
 cases l with
 |nil=>rfl
 |cons c t=>rw [jI,if_neg (h c rfl)]
theorem Oh (l:ab) (i:Nat) (h:i<l.length):(l.drop i).take (fM bd l (i+1)-i)=mS (l.drop i)∧gH (l.drop i)=if (l.drop (fM cv l (fM bd l (i+1)))).head?=some 61 then ((gQ (l.drop (fM cv l (fM cv l (fM bd l (i+1))+1)))).1,fM cv l (fM cv l (fM bd l (i+1))+1)+(gQ (l.drop (fM cv l (fM cv l (fM bd l (i+1))+1)))).2-i) else ([],fM cv l (fM bd l (i+1))-i):=by
 have ht:l.drop i=l[i]::l.drop (i+1):=List.drop_eq_getElem_cons h
 have ea:mS (l.drop i)=l[i]::(l.drop (i+1)).takeWhile bd:=by rw [ht];rfl
 have el:(mS (l.drop i)).length=((l.drop (i+1)).takeWhile bd).length+1:=by rw [ea];rfl
 have e1:fM bd l (i+1)=i+(mS (l.drop i)).length:=by rw [el];unfold fM;omega
 refine ⟨?_,?_⟩
 ·rw [e1,Nat.add_sub_cancel_left,el,ht,List.take_succ_cons,xd,←ht,ea]
 ·unfold gH
  rw [List.drop_drop,←e1]
  obtain ⟨a,ha⟩:∃a,fM bd l (i+1)=a:=⟨_,rfl⟩
  rw [ha] at e1⊢
  have e2:(mS (l.drop i)).length+((l.drop a).takeWhile cv).length=fM cv l a-i:=by unfold fM;omega
  have hb1:i+1≤fM cv l a:=by unfold fM;omega
  rw [e2,←DL]
  obtain ⟨b,hb⟩:∃b,fM cv l a=b:=⟨_,rfl⟩
  rw [hb] at hb1⊢
  unfold Oc
  split
  ·rw [List.drop_drop,←DL]
   congr 1
   have e3:b-i+1+((l.drop (b+1)).takeWhile cv).length=fM cv l (b+1)-i:=by unfold fM;omega
   have hb3:i≤fM cv l (b+1):=by unfold fM;omega
   rw [e3];omega
  ·rfl
theorem pN (n:Nat) (hn:n<256) (hl:¬(97≤n∧n≤122)) (hu:¬(65≤n∧n≤90)) (c:UInt8):(UInt8.ofNat n==ct c)=(c==UInt8.ofNat n):=by
 have h1:=cU c
 have h2:(UInt8.ofNat n).toNat=n:=by rw [UInt8.toNat_ofNat'];exact Nat.mod_eq_of_lt hn
 have h3:=c.toNat_lt
 rw [Bool.eq_iff_iff,beq_iff_eq,beq_iff_eq,←UInt8.toNat_inj,←UInt8.toNat_inj,h2]
 by_cases hc:65≤(c.toNat:Int)∧(c.toNat:Int)≤90
 ·rw [show fY (c.toNat:Int)=(c.toNat:Int)+32 from if_pos hc] at h1
  constructor<;>intro h<;>omega
 ·rw [show fY (c.toNat:Int)=(c.toNat:Int) from if_neg hc] at h1
  constructor<;>intro h<;>omega
theorem Oi (s:ByteArray) (i:Nat) (h:i≤s.size):bf s (i:Int) ⟨#[61]⟩=decide ((s.data.toList.drop i).head?=some 61):=by
 unfold bf
 rw [decide_eq_true (show 0≤(i:Int)∧(i:Int)≤(s.size:Int) by omega),Bool.true_and,show ((i:Nat):Int).toNat=i by omega]
 show [61].isPrefixOf _=_
 cases s.data.toList.drop i with
 |nil=>rfl
 |cons c t=>
  rw [aM,List.isPrefixOf_cons_cons,List.isPrefixOf_nil_left,Bool.and_true,show ((61:UInt8)==ct c)=(c==61) from pN 61 (by decide) (by decide) (by decide) c]
  rw [Bool.eq_iff_iff];simp
theorem Fa (s:ByteArray) (i:Nat) (h:i≤s.size):bf s (i:Int) ⟨#[47,62]⟩=decide ((s.data.toList.drop i).head?=some 47∧(s.data.toList.drop (i+1)).head?=some 62):=by
 unfold bf
 rw [decide_eq_true (show 0≤(i:Int)∧(i:Int)≤(s.size:Int) by omega),Bool.true_and,show ((i:Nat):Int).toNat=i by omega,←List.drop_drop]
 show [47,62].isPrefixOf _=_
 cases s.data.toList.drop i with
 |nil=>rfl
 |cons c t=>
  cases t with
  |nil=>
   rw [aM,List.isPrefixOf_cons_cons]
   simp [aF]
  |cons d r=>
   rw [aM,List.isPrefixOf_cons_cons,aM,List.isPrefixOf_cons_cons,List.isPrefixOf_nil_left,Bool.and_true,show ((47:UInt8)==ct c)=(c==47) from pN 47 (by decide) (by decide) (by decide) c,show ((62:UInt8)==ct d)=(d==62) from pN 62 (by decide) (by decide) (by decide) d]
   rw [Bool.eq_iff_iff];simp
theorem zo (s : ByteArray) (a : Int) (i : Nat) (w : World) (hs : s.size ≤ 1099511627776) (ha : (i : Int) = a) (hi : i ≤ s.size) :
    Calls Tryz.prog 183 #[.string s, .int .i64 a] w fun e w' => e = .returned (.tuple #[.string ⟨(gQ (s.data.toList.drop i)).1.toArray⟩, .int .i64 ((i + (gQ (s.data.toList.drop i)).2 : Nat) : Int)]) ∧ ∃ n, w' = w.drewN n := by
  subst ha
  have hlen : (s.data.toList.drop i).length = s.size - i := by rw [List.length_drop, ← Lib.size_eq]
  by_cases hq : ∃ h : i < s.size, s[i] = 34 ∨ s[i] = 39
  · obtain ⟨hlt, hq⟩ := hq
    have hv : gQ (s.data.toList.drop i) = ((s.data.toList.drop (i + 1)).takeWhile (· != s[i]), s.size - i - (((s.data.toList.drop (i + 1)).dropWhile (· != s[i])).tail).length) := by
      rw [aj s i hlt, jI, if_pos hq, ← aj s i hlt, hlen]
    obtain ⟨t, ht⟩ : ∃ t, s.data.toList.drop (i + 1) = t := ⟨_, rfl⟩
    have htl : t.length = s.size - (i + 1) := by rw [← ht, List.length_drop, ← Lib.size_eq]
    have hxs : (s.extract (i + 1) s.size).size ≤ 1099511627776 := by rw [ByteArray.size_extract]; omega
    have hx : (s.extract (i + 1) s.size).data.toList = t.takeWhile (· != s[i]) ++ t.dropWhile (· != s[i]) := by
      rw [extract_data, List.take_of_length_le (by rw [List.length_drop, ← Lib.size_eq]; omega), ht, List.takeWhile_append_dropWhile]
    have hno : s[i] ∉ t.takeWhile (· != s[i]) := fun h => by
      have := List.all_eq_true.1 (List.all_takeWhile (l := t) (p := (· != s[i]))) _ h
      simp at this
    have hrest : t.dropWhile (· != s[i]) = [] ∨ ∃ z, t.dropWhile (· != s[i]) = s[i] :: z := by
      cases hd : t.dropWhile (· != s[i]) with
      | nil => exact .inl rfl
      | cons d z =>
        have := ru _ t d z hd
        have : d = s[i] := by simpa using this
        exact .inr ⟨z, by rw [this]⟩
    have HC := fun w => Lib.hid (mc (s.extract (i + 1) s.size) s[i] _ _ w hxs hx hno hrest)
    rw [show (⟨#[s[i]]⟩ : ByteArray) = s.extract i (i + 1) from bl (by rw [cr s i hlt])] at HC
    unfold ua at HC
    obtain ⟨V, hV⟩ : ∃ V : ByteArray, ⟨(t.takeWhile (· != s[i])).toArray⟩ = V := ⟨_, rfl⟩
    obtain ⟨L, hL⟩ : ∃ L : ByteArray, ⟨(t.dropWhile (· != s[i])).tail.toArray⟩ = L := ⟨_, rfl⟩
    obtain ⟨B, hB⟩ : ∃ B : Bool, (!(t.dropWhile (· != s[i])).isEmpty) = B := ⟨_, rfl⟩
    have hLs : L.size = ((t.dropWhile (· != s[i])).tail).length := by rw [← hL, Lib.size_eq, List.toList_toArray]
    have hLle : L.size ≤ s.size - (i + 1) := by
      have h1 := List.length_tail (l := t.dropWhile (· != s[i]))
      have h2 := (List.dropWhile_sublist (l := t) (· != s[i])).length_le
      omega
    rw [hv, ht]
    simp only
    rw [hV, ← hLs]
    rw [hV, hL, hB] at HC
    have HR := Lib.hid (show ((s.size : Int) - (L.size : Int)) = ((i + (s.size - i - L.size) : Nat) : Int) by omega)
    rw [← HR.out]
    have i1 : (i : Int) + 1 ≤ (s.size : Int) := by omega
    have i2 : (i : Int) < (s.size : Int) := by omega
    have i3 : (0 : Int) ≤ (i : Int) + 1 := by omega
    have i4 : IntKind.i64.wrap ((i : Int) + 1) = (i : Int) + 1 := by rw [IntKind.wrap_i64]; omega
    have i5 : ((i : Int) + 1).toNat = i + 1 := by omega
    have i6 : (i : Int) ≤ (i : Int) + 1 := by omega
    have hc : ((s[i].toNat : Int) != 34) = false ∨ ((s[i].toNat : Int) != 34) = true ∧ ((s[i].toNat : Int) != 39) = false := by
      rcases hq with h | h <;> rw [h] <;> decide
    clear hv ht htl hxs hx hno hrest hV hL hB hq HR hlen hLs
    have d1 : ((i : Int) == (s.size : Int)) = false := by simp; omega
    rcases hc with h34 | ⟨h34, h39⟩
    all_goals
      go_enter Tryz.func183, Tryz.ntmps183
      go_wp2
      go_quiet ((go_at_call 105; refine (HC _).out.mono ?_; rintro e w'' ⟨rfl, n, rfl⟩; first | exact ⟨rfl, _, World.drewN_drewN ..⟩ | exact ⟨rfl, _, rfl⟩))
      go_wp2
      go_ret2
      exact ⟨rfl, _, rfl⟩
  · have hv := Iy (s.data.toList.drop i) (fun c h => fun hc => hq (by
      have hlt : i < s.size := Nat.lt_of_not_le fun h2 => by
        rw [List.drop_eq_nil_of_le (by rw [← Lib.size_eq]; exact h2)] at h; simp at h
      refine ⟨hlt, ?_⟩
      rw [aj s i hlt, List.head?_cons, Option.some.injEq] at h
      rw [h]; exact hc))
    have HB := fun w => Lib.hid (xj s (i : Int) i w hs rfl hi)
    have hle := xi eA s i hi
    have HV := Lib.hid (show s.extract i (fM eA s.data.toList i) = ⟨((s.data.toList.drop i).takeWhile eA).toArray⟩ from bl (by
      rw [extract_data]; unfold fM; rw [Nat.add_sub_cancel_left, xd]))
    rw [hv]
    simp only
    rw [← HV.out, show i + ((s.data.toList.drop i).takeWhile eA).length = fM eA s.data.toList i from rfl]
    obtain ⟨E, hE⟩ : ∃ E, fM eA s.data.toList i = E := ⟨_, rfl⟩
    rw [hE] at HB hle ⊢
    clear hv HV hE hlen
    by_cases hlt : i < s.size
    · have h34 : ((s[i].toNat : Int) != 34) = true := by
        have : ¬ s[i] = 34 := fun h => hq ⟨hlt, .inl h⟩
        rw [bne_iff_ne]; intro h; exact this (aT _ 34 (by decide) h)
      have h39 : ((s[i].toNat : Int) != 39) = true := by
        have : ¬ s[i] = 39 := fun h => hq ⟨hlt, .inr h⟩
        rw [bne_iff_ne]; intro h; exact this (aT _ 39 (by decide) h)
      have d1 : ((i : Int) == (s.size : Int)) = false := by simp; omega
      clear hq
      go_enter Tryz.func183, Tryz.ntmps183
      go_wp2_with (go_at_call 181; refine (HB _).out.mono ?_; rintro e w' ⟨rfl, rfl⟩)
      go_ret2
      exact ⟨rfl, 0, rfl⟩
    · obtain rfl : i = s.size := by omega
      clear hq
      go_enter Tryz.func183, Tryz.ntmps183
      go_wp2_with (go_at_call 181; refine (HB _).out.mono ?_; rintro e w' ⟨rfl, rfl⟩)
      go_ret2
      exact ⟨rfl, 0, rfl⟩
theorem ug (s:ByteArray) (a:Int) (i:Nat) (w:World) (hs:s.size≤1099511627776) (ha:(i:Int)=a) (hi:i<s.size):Calls Tryz.prog 151 #[.string s,.int .i64 a] w fun e w'=>e= .returned (.tuple #[.string ⟨(aP (mS (s.data.toList.drop i))).toArray⟩,.string ⟨(gH (s.data.toList.drop i)).1.toArray⟩,.int .i64 ((i+(gH (s.data.toList.drop i)).2:Nat):Int)])∧Below w.heap.size w w':=by
 subst ha
 obtain ⟨h1,h2⟩:=Oh s.data.toList i (by rw [←Lib.size_eq];exact hi)
 have HB1:=fun w=>Lib.hid (zn s ((i:Int)+1) (i+1) w hs (by omega) (by omega))
 have l1:=xi bd s (i+1) (by omega)
 obtain ⟨e1,he1⟩:∃e1,fM bd s.data.toList (i+1)=e1:=⟨_,rfl⟩
 rw [he1] at h1 h2 HB1 l1
 have HB2:=fun w=>Lib.hid (ot s (e1:Int) e1 w hs rfl l1.2)
 have l2:=xi cv s e1 l1.2
 obtain ⟨e2,he2⟩:∃e2,fM cv s.data.toList e1=e2:=⟨_,rfl⟩
 rw [he2] at h2 HB2 l2
 have HG:=fun w=>Lib.hid (cB s (e2:Int) ⟨#[61]⟩ w hs (by decide) (by omega) (by omega))
 rw [Oi s e2 l2.2] at HG
 obtain ⟨X,hX⟩:∃X,s.extract i e1=X:=⟨_,rfl⟩
 have hXl:X.data.toList=mS (s.data.toList.drop i):=by rw [←hX,extract_data,h1]
 have hXs:X.size≤1099511627776:=by rw [←hX,ByteArray.size_extract];omega
 have HL:=fun w=>Lib.hid (Nh X w hXs)
 have HC:=fun w=>Lib.hid (gm (qV X) w (by rw [jw];exact hXs))
 rw [fo,hXl] at HC
 rw [show ap (aF (mS (s.data.toList.drop i)))=aP (mS (s.data.toList.drop i)) from rfl] at HC
 obtain ⟨N,hN⟩:∃N:ByteArray,⟨(aP (mS (s.data.toList.drop i))).toArray⟩=N:=⟨_,rfl⟩
 rw [hN] at HC⊢
 have HX:=Lib.hid hX
 have HX2:=Lib.hid hX.symm
 clear hXl hN h1 he1 he2 hXs
 by_cases h61:(s.data.toList.drop e2).head?=some 61
 ·rw [if_pos h61] at h2
  rw [decide_eq_true h61] at HG
  have hlt:e2<s.size:=Nat.lt_of_not_le fun h=>by
   rw [List.drop_eq_nil_of_le (by rw [←Lib.size_eq];exact h)] at h61;simp at h61
  have HB3:=fun w=>Lib.hid (ot s ((e2:Int)+1) (e2+1) w hs (by omega) (by omega))
  have l3:=xi cv s (e2+1) (by omega)
  obtain ⟨e3,he3⟩:∃e3,fM cv s.data.toList (e2+1)=e3:=⟨_,rfl⟩
  rw [he3] at h2 HB3 l3
  have HV:=fun w=>Lib.hid (zo s (e3:Int) e3 w hs rfl l3.2)
  rw [h2]
  simp only
  obtain ⟨V,hV⟩:∃V:ByteArray,⟨(gQ (s.data.toList.drop e3)).1.toArray⟩=V:=⟨_,rfl⟩
  obtain ⟨M,hM⟩:∃M,e3+(gQ (s.data.toList.drop e3)).2=M:=⟨_,rfl⟩
  rw [hV,hM] at HV
  have hMi:i+(M-i)=M:=by omega
  rw [hV,hM,hMi]
  clear h2 hV hM hMi he3 h61 hX
  go_enter Tryz.func151,Tryz.ntmps151
  go_wp2_with (fail)
  refine (HB1 _).out.mono ?_
  rintro e w1 ⟨rfl,rfl⟩
  go_wp2_with (fail)
  rw [HX.out]
  refine (HL _).out.mono ?_
  rintro e w2 ⟨rfl,b2⟩
  go_wp2_with (fail)
  refine (HC _).out.mono ?_
  rintro e w3 ⟨rfl,b3⟩
  have c3:=b2.trans (b3.mono b2.size)
  go_wp2_with (fail)
  refine (HB2 _).out.mono ?_
  rintro e w4 ⟨rfl,rfl⟩
  go_wp2_with (fail)
  refine (HG _).out.mono ?_
  rintro e w5 ⟨rfl,n5,rfl⟩
  go_wp2_with (fail)
  refine (HB3 _).out.mono ?_
  rintro e w6 ⟨rfl,rfl⟩
  go_wp2_with (fail)
  refine (HV _).out.mono ?_
  rintro e w7 ⟨rfl,n7,rfl⟩
  go_wp2
  go_ret3
  exact ⟨rfl,c3.trans (ai _ _ _)⟩
 ·rw [if_neg h61] at h2
  rw [decide_eq_false h61] at HG
  rw [h2]
  simp only
  have hMi:i+(e2-i)=e2:=by omega
  rw [hMi]
  clear h2 hMi h61 hX
  go_enter Tryz.func151,Tryz.ntmps151
  go_wp2_with (fail)
  refine (HB1 _).out.mono ?_
  rintro e w1 ⟨rfl,rfl⟩
  go_wp2_with (fail)
  rw [HX.out]
  refine (HL _).out.mono ?_
  rintro e w2 ⟨rfl,b2⟩
  go_wp2_with (fail)
  refine (HC _).out.mono ?_
  rintro e w3 ⟨rfl,b3⟩
  have c3:=b2.trans (b3.mono b2.size)
  go_wp2_with (fail)
  refine (HB2 _).out.mono ?_
  rintro e w4 ⟨rfl,rfl⟩
  go_wp2_with (fail)
  refine (HG _).out.mono ?_
  rintro e w5 ⟨rfl,n5,rfl⟩
  go_wp2
  go_ret3
  exact ⟨rfl,c3.trans (ai _ _ _)⟩
end Go.Proofs.YtajpoodpbbbkfaaGreatDoor
namespace Go.Proofs.YtajpoodpbbbkfaaGreatDoor
open Go.RowKit Go.Lib Go.WideMaps Go.Maps
theorem uh {H:Type} {P:Program} {e:TypeId} (he:P.underlying e=some .bool) {v:Value} {z:DataW H × List MemPlace} (h:plainElem P e v=some z):∃b,v= .bool b∧z=(.lit (.bool b),[]):=by
 unfold plainElem at h
 rw [he] at h
 cases v<;>simp at h
 exact ⟨_,rfl,h.symm⟩
def g6 (w:World) (P:Program) (k e:TypeId) (b n:Nat) (f:List UInt8→Bool):Prop:=
 ∃D:DataW Unit,w.ownsMap P k (plainElem P e) b n D∧IsMap D∧∀t:List UInt8,D.atKey (.string t) (.lit (.bool false))= .lit (.bool (f t))
theorem g6.kept {w w':World} {P:Program} {k e:TypeId} {b n:Nat} {f:List UInt8→Bool} {row:Option Nat} (h:g6 w P k e b n f) (hg:w.grownBy w' row) (hne:some b≠row):g6 w' P k e b n f:=by
 obtain ⟨D,h1,h2,h3⟩:=h
 exact ⟨D,h1.kept hg hne,h2,h3⟩
theorem g6.below {w w':World} {P:Program} {k e:TypeId} {b n:Nat} {f:List UInt8→Bool} (h:g6 w P k e b n f) (hb:Below w.heap.size w w'):g6 w' P k e b n f:=
 h.kept (row:=none) ⟨hb.os,hb.tape,hb.output,hb.size,fun k hk _=>hb.block k hk⟩ (by simp)
theorem g6.alloc {w:World} {P:Program} {k e:TypeId} {b n:Nat} {f:List UInt8→Bool} (h:g6 w P k e b n f) (o:Obj):g6 (w.alloc o) P k e b n f:=
 h.kept (World.grownBy_alloc w o none) (by simp)
theorem g6.lt {w:World} {P:Program} {k e:TypeId} {b n:Nat} {f:List UInt8→Bool} (h:g6 w P k e b n f):b<w.heap.size:=by
 obtain ⟨D,h1,-⟩:=h
 exact h1.lt
theorem BG (w:World) (P:Program) (k e:TypeId):g6 (w.alloc (.map #[] 0)) P k e w.heap.size 0 (fun _=>false):=
 ⟨.map [],World.ownsMap_made _ _ _ _,isMap_empty,fun _=>rfl⟩
theorem jJ {P:Program} (w:World) {ops:Array Oper} {rest:List Oper} {o:Oper} {a:Act} {Q:Exit→Act→World→Prop} (hg:o.guard=none) (m x:Operand) (t:TypeId) (hop:o.op=Op.lookup t m x false) (k e:TypeId) (hk:P.underlying k=some .string) (ht:P.underlying t=some (.map k e)) (he:P.underlying e=some .bool) (hz:(zeroValue e).run P w= .ok (.bool false) w) (b n:Nat) (f:List UInt8→Bool) (hm:a.eval m= .map (some b)) (hown:g6 w P k e b n f) (s:ByteArray) (hs:s.size≤maxLen) (hx:a.eval x= .string s) (hK:wpList P ops Q rest (a.put o.dst (.bool (f s.data.toList))) w):wpList P ops Q (o::rest) a w:=by
 refine wpList_plain hg fun K' hK'=>?_
 obtain ⟨D,h1,h2,h3⟩:=hown
 obtain ⟨v,ps,hrun,hv⟩:=h1.lookup (string_keyed hk) ht hz (plainElem_bool he false) (keyOf_string_mk hk hs)
 obtain ⟨c,rfl,hc⟩:=uh he hv
 rw [h3] at hc
 simp only [Prod.mk.injEq,DataW.lit.injEq,Lit.bool.injEq] at hc
 rw [←hc.1] at hrun
 unfold Oper.wp
 simp [execOp,hop,hm,hx,hrun,Result.andThen]
 exact hK' _ _ hK
theorem ou {P:Program} (w:World) {ops:Array Oper} {rest:List Oper} {o:Oper} {a:Act} {Q:Exit→Act→World→Prop} (hg:o.guard=none) (m x v:Operand) (t:TypeId) (hop:o.op=Op.mapUpdate t m x v) (k e:TypeId) (hk:P.underlying k=some .string) (ht:P.underlying t=some (.map k e)) (he:P.underlying e=some .bool) (b n:Nat) (f:List UInt8→Bool) (hm:a.eval m= .map (some b)) (hown:g6 w P k e b n f) (hn:n<maxLen) (s:ByteArray) (hs:s.size≤maxLen) (c:Bool) (key val:Value) (hx:a.eval x=key) (hv:a.eval v=val) (hkey:key= .string s) (hval:val= .bool c) (hK:∀w',g6 w' P k e b (n+1) (fun u=>if u=s.data.toList then c else f u)→w.grownBy w' (some b)→wpList P ops Q rest (a.put o.dst undef) w'):wpList P ops Q (o::rest) a w:=by
 subst hkey;subst hval
 obtain ⟨D,h1,h2,h3⟩:=hown
 refine wpList_mapUpdate_own w hg m x v t hop k e (string_keyed hk) ht (plainElem P e) b n D hm h1 hn (.string s) (.bool c) _ hx hv (keyOf_string_mk hk hs) (.lit (.bool c)) [] (plainElem_bool he c) ?_
 intro w' h1' hgr
 refine hK w' ⟨_,h1',h2.put _ _,fun u=>?_⟩ hgr
 show _=DataW.lit (Lit.bool (if u=s.data.toList then c else f u))
 by_cases hu:u=s.data.toList
 ·rw [if_pos hu,hu]
  exact atKey_put_same h2 (show WideAt.IsKeyLit (.string s.data.toList) from trivial) _ _
 ·rw [if_neg hu,atKey_put_other (fun e=>hu (by injection e)) _ _,h3]
end Go.Proofs.YtajpoodpbbbkfaaGreatDoor
namespace Go.Proofs.YtajpoodpbbbkfaaGreatDoor
open Go.RowKit Go.Lib Go.Maps
theorem zp (w:World):(zeroValue 4).run Tryz.prog w= .ok (.bool false) w:=by kernel_rfl
def Pz (s:ByteArray) (a:Int) (lv:Value) (B:Nat) (u:Nat→Value):Act:=
 {tmps:=#[.string s,.int .i64 a,u 2,u 3,lv,u 5,u 6,u 7,.map (some B),u 9,u 10,u 11,u 12,u 13,u 14,u 15,u 16,u 17,u 18,u 19,u 20,u 21,u 22,u 23,u 24,u 25,u 26,u 27,u 28,u 29,u 30,u 31,u 32,u 33,u 34,u 35,u 36,u 37,u 38,u 39,u 40,u 41,u 42,u 43,u 44,u 45,u 46,u 47,u 48,u 49,u 50,u 51,u 52,u 53,u 54,u 55,u 56,u 57,u 58,u 59,u 60,u 61,u 62,u 63,u 64,u 65,u 66,u 67,u 68,u 69,u 70,u 71,u 72,u 73,u 74,u 75,u 76,u 77],defers:=[]}
def pO (l:List Ln):ab→Bool:=fun k=>l.any (fun r=>r.1==k)
theorem Fb (l:List Ln) (n v:ab):(fun u=>decide (u=n)||pO l u)=pO (l++[(n,v)]):=by
 funext u
 unfold pO
 rw [List.any_append,List.any_cons,List.any_nil,Bool.or_false]
 by_cases h:u=n
 ·rw [decide_eq_true h,h,beq_self_eq_true n,Bool.or_true,Bool.true_or]
 ·rw [decide_eq_false h,Bool.false_or,show (n==u)=false by rw [beq_eq_false_iff_ne];exact fun e=>h e.symm,Bool.or_false]
theorem Fc (l:ab) (i:Nat) (h:i<l.length) (hb:Ix l[i]=true) (ls:List Ln) (T:Option mR) (hT:eT i (.s0 ls) (l.drop i)=T):eT (i+(gH (l.drop i)).2) (.s0 (gp ls (mS (l.drop i)) (gH (l.drop i)).1)) (l.drop (i+(gH (l.drop i)).2))=T:=by
 rw [←hT]
 unfold eT
 have ht:l.drop i=l[i]::l.drop (i+1):=List.drop_eq_getElem_cons h
 rw [←List.drop_drop]
 rw [ht]
 rw [LE ls l[i] (l.drop (i+1)) hb,fe,Nat.add_comm]
theorem zq (s:ByteArray) (a:Int) (w:World) (hs:s.size≤1048576) (ha: -9223372036854775808≤a∧a≤9223372036854775807) (h:bn w):Calls Tryz.prog 98 #[.string s,.int .i64 a] w (Nq s a w):=by
 have HT:=Lib.hid h
 clear h
 by_cases h0:a<0
 focus
  have HV:=Lib.hid (mi s.data.toList a (by omega))
 rotate_left
 focus
  by_cases h1:(s.size:Int)<a
 focus
  have HV:=Lib.hid (mi s.data.toList a (by rw [←Lib.size_eq];omega))
 rotate_left
 ·obtain ⟨k,rfl⟩:∃k:Nat,a=k:=⟨a.toNat,by omega⟩
  have hk:k≤s.size:=by omega
  have HV0:=Lib.hid (fun h=>nu s.data.toList k (by rw [←Lib.size_eq];exact hk) h)
  have HV1:=Lib.hid (fun l self n h=>nv s.data.toList k (by rw [←Lib.size_eq];exact hk) l self n h)
  obtain ⟨T,hT⟩:∃T,eT k (.s0 []) (s.data.toList.drop k)=T:=⟨_,rfl⟩
  rw [hT] at HV0 HV1
  have HK:=Lib.hid hT
  clear hT h0 h1 ha
  obtain ⟨i0,hi0,hz0,hz1,hz2⟩:=info_parts vr
  have d0:decide ((k:Int)<0)=false:=decide_eq_false (by omega)
  have d1:decide (s.size<k)=false:=decide_eq_false (by omega)
  have hmm:=@run_makeMap Tryz.prog
  have hs2:s.size≤1099511627776:=by omega
  go_enter Tryz.func98,Tryz.ntmps98
  go_wp2
  refine cV 0 (fun a' wr=>∃(i n:Nat) (l:List Ln) (lv:Value),a'=Pz s (i:Int) lv w.heap.size (fun n=>a'.tmps.getD n undef)∧wr.ownsRow (w.heap.size+1) 151 2 lv l.length (fE l)∧g6 wr Tryz.prog 9 4 w.heap.size n (pO l)∧Below w.heap.size w wr∧i≤s.size∧n≤i∧l.length≤i∧eT i (.s0 l) (s.data.toList.drop i)=T) (fun a' _=>s.size-(ae (a'.tmps.getD 1 undef)).toNat) rfl ?_ ?_
  ·rintro a' wr ⟨i,n,l,lv,hfr,hown,hmap,hbw,hle,hn,hl,hT⟩
   obtain ⟨u,rfl⟩:∃u,a'=Pz s (i:Int) lv w.heap.size u:=⟨_,hfr⟩
   clear hfr
   unfold Pz
   have HO:=Lib.hid hown
   have HM:=Lib.hid hmap
   have HB:=Lib.hid hbw
   have HX:=Lib.hid hT
   clear hown hmap hbw hT HK
   by_cases hlt:i<s.size
   ·have HG:=fun w=>Lib.hid (cB s (i:Int) ⟨#[47,62]⟩ w hs2 (by decide) (by omega) (by omega))
    rw [Fa s i hle] at HG
    have db:((i:Int)==(s.size:Int))=false:=by simp;omega
    have hx:=HX.out
    rw [aj s i hlt] at hx
    have hb1:=s[i].toNat_lt
    have HSp:=fun w=>Lib.hid (vt s[i] _ w rfl)
    by_cases c62:s[i]=62
    ·have HN:=Lib.hid (HV1.out l false (i+1) (pI (DG c62) hx))
     rw [show ((i+1:Nat):Int)=(i:Int)+1 by omega] at HN
     have h62:((s[i].toNat:Int)==62)=true:=by rw [c62];rfl
     obtain ⟨ad,cap,rfl,hr⟩:=iI l HO.out
     have HR:=Lib.hid hr
     clear hr hx c62 HG HSp HM HX hb1
     go_wp2
     simp only [Exit.jump]
     try simp only [Exit.inBlock,Exit.then]
     refine bodyPost_ret (cI rfl _ _ _) rfl ?_
     exact ⟨_,_,_,_,_,_,_,rfl,HR.out,HN.out,HB.out,fun k h=>Nat.le_of_succ_le (HO.out.lt k h).1⟩
    have h62:((s[i].toNat:Int)==62)=false:=by
     rw [beq_eq_false_iff_ne];exact fun h=>c62 (aT _ 62 (by decide) h)
    by_cases hcl:(s.data.toList.drop i).head?=some 47∧(s.data.toList.drop (i+1)).head?=some 62
    ·rw [decide_eq_true hcl] at HG
     have c47:s[i]=47:=by have:=hcl.1;rw [aj s i hlt,List.head?_cons,Option.some.injEq] at this;exact this
     have hlt2:i+1<s.size:=Nat.lt_of_not_le fun h=>by
      have:=hcl.2;rw [List.drop_eq_nil_of_le (by rw [←Lib.size_eq];exact h)] at this;simp at this
     have HN:=Lib.hid (HV1.out l true (i+2) (pI (zb c47 hcl.2) hx))
     rw [show ((i+2:Nat):Int)=(i:Int)+2 by omega] at HN
     obtain ⟨ad,cap,rfl,hr⟩:=iI l HO.out
     have HR:=Lib.hid hr
     clear hr hx c62 c47 hcl HSp HM HX hb1
     go_wp2_with (fail)
     refine (HG _).out.mono ?_
     rintro e w1 ⟨rfl,n1,rfl⟩
     go_wp2
     simp only [Exit.jump]
     try simp only [Exit.inBlock,Exit.then]
     refine bodyPost_ret (cI rfl _ _ _) rfl ?_
     exact ⟨_,_,_,_,_,_,_,rfl,HR.out.below (ai _ _ _) (Nat.le_refl _),HN.out,HB.out.trans (ai _ _ _),fun k h=>Nat.le_of_succ_le (HO.out.lt k h).1⟩
    rw [decide_eq_false hcl] at HG
    by_cases c47:s[i]=47
    ·have hn62:(s.data.toList.drop (i+1)).head?≠some 62:=fun h=>hcl ⟨by rw [aj s i hlt,List.head?_cons,c47],h⟩
     have HN:=Lib.hid (pH (nw c47 hn62) hx)
     have h47:((s[i].toNat:Int)==47)=true:=by rw [c47];rfl
     clear hx c62 c47 hcl hn62 HSp HX hb1
     go_wp2_with (fail)
     refine (HG _).out.mono ?_
     rintro e w1 ⟨rfl,n1,rfl⟩
     go_wp2
     go_step3
     refine ⟨rfl,⟨i+1,n,l,lv,rfl,gq HO.out (ai _ _ _),HM.out.below (ai _ _ _),HB.out.trans (ai _ _ _),hlt,by omega,by omega,HN.out⟩,?_⟩
     simp [ae];omega
    have h47:((s[i].toNat:Int)==47)=false:=by
     rw [beq_eq_false_iff_ne];exact fun h=>c47 (aT _ 47 (by decide) h)
    by_cases hsp:cv s[i]=true
    ·have HN:=Lib.hid (pH (vl hsp) hx)
     rw [hsp] at HSp
     clear hx c62 c47 hcl hsp HX hb1
     go_wp2_with (fail)
     refine (HG _).out.mono ?_
     rintro e w1 ⟨rfl,n1,rfl⟩
     go_wp2_with (fail)
     refine (HSp _).out.mono ?_
     rintro e w2 ⟨rfl,rfl⟩
     go_wp2
     go_step3
     refine ⟨rfl,⟨i+1,n,l,lv,rfl,gq HO.out (ai _ _ _),HM.out.below (ai _ _ _),HB.out.trans (ai _ _ _),hlt,by omega,by omega,HN.out⟩,?_⟩
     simp [ae];omega
    have hsf:cv s[i]=false:=by simpa using hsp
    have hbeg:Ix s[i]=true:=by unfold Ix;rw [hsf];simp [c62,c47]
    have HA:=fun w=>Lib.hid (ug s (i:Int) i w hs2 rfl hlt)
    have hstep:=Fc s.data.toList i (by rw [←Lib.size_eq];exact hlt) hbeg l T HX.out
    have hbd:=zm s[i] (s.data.toList.drop (i+1))
    rw [←aj s i hlt,List.length_drop,←Lib.size_eq] at hbd
    have hnm:=Od (s.data.toList.drop i)
    rw [List.length_drop,←Lib.size_eq] at hnm
    rw [hsf] at HSp
    have hNc:=(er (aF (mS (s.data.toList.drop i)))).2
    rw [ej] at hNc
    obtain ⟨N,hN⟩:∃N:ByteArray,⟨(aP (mS (s.data.toList.drop i))).toArray⟩=N:=⟨_,rfl⟩
    obtain ⟨V,hV⟩:∃V:ByteArray,⟨(gH (s.data.toList.drop i)).1.toArray⟩=V:=⟨_,rfl⟩
    obtain ⟨m,hm⟩:∃m,i+(gH (s.data.toList.drop i)).2=m:=⟨_,rfl⟩
    have hNl:N.data.toList=aP (mS (s.data.toList.drop i)):=by rw [←hN,List.toList_toArray]
    have hVl:V.data.toList=(gH (s.data.toList.drop i)).1:=by rw [←hV,List.toList_toArray]
    have hNs:N.size≤3145728:=by rw [Lib.size_eq,hNl];unfold aP;omega
    have hVs:V.size≤1048576:=by rw [Lib.size_eq,hVl];omega
    rw [hN,hV,hm] at HA
    rw [hm] at hstep
    have hm1:i<m:=by omega
    have hm2:m≤s.size:=by omega
    have hNm:N.size≤maxLen:=by unfold maxLen;omega
    have HNV:=Lib.hid (show (Value.string N)=fZ (aP (mS (s.data.toList.drop i))) by rw [←hN];rfl)
    have HNL:=Lib.hid hNl
    cases hF:pO l N.data.toList
    ·have hadd:gp l (mS (s.data.toList.drop i)) (gH (s.data.toList.drop i)).1=l++[(aP (mS (s.data.toList.drop i)),qB (gH (s.data.toList.drop i)).1)]:=by
      unfold gp
      rw [if_neg (by rw [←hNl];unfold pO at hF;rw [hF];exact Bool.false_ne_true)]
     rw [hadd] at hstep
     have HST:=Lib.hid hstep
     have HD:=fun w h1 h2=>Lib.hid (ns V true w (by omega) h1 h2)
     have hds:(⟨(dQ true V.data.toList).toArray⟩:ByteArray).size≤1099511627776:=by
      rw [Lib.size_eq,List.toList_toArray]
      have:=lx true V.data.toList.length V.data.toList (Nat.le_refl _)
      rw [←Lib.size_eq] at this
      omega
     have HC:=fun w=>Lib.hid (gm ⟨(dQ true V.data.toList).toArray⟩ w hds)
     rw [List.toList_toArray,show ap (dQ true V.data.toList)=qB (gH (s.data.toList.drop i)).1 by rw [hVl];rfl] at HC
     obtain ⟨D,hD⟩:∃D:ByteArray,⟨(dQ true V.data.toList).toArray⟩=D:=⟨_,rfl⟩
     obtain ⟨W,hW⟩:∃W:ByteArray,⟨(qB (gH (s.data.toList.drop i)).1).toArray⟩=W:=⟨_,rfl⟩
     rw [hD] at HD HC
     rw [hW] at HC
     have HWV:=Lib.hid (show (Value.string W)=fZ (qB (gH (s.data.toList.drop i)).1) by rw [←hW];rfl)
     have hne:lv.ownBlock=none∨lv.ownBlock≠some w.heap.size:= .inr fun e=>by
      have:=(HO.out.lt _ e).1;omega
     have hne2:some w.heap.size≠lv.ownBlock:=fun e=>by
      have:=(HO.out.lt _ e.symm).1;omega
     have HNE:=Lib.hid hne
     have HNE2:=Lib.hid hne2
     have hB1:=HM.out.lt
     clear hx c62 c47 hcl hsp HX hb1 hsf hbeg hstep hbd hnm hNc hN hV hm hNl hVl hadd hds hD hW hne hne2
     go_wp2_with (fail)
     refine (HG _).out.mono ?_
     rintro e w1 ⟨rfl,n1,rfl⟩
     go_wp2_with (fail)
     refine (HSp _).out.mono ?_
     rintro e w2 ⟨rfl,rfl⟩
     go_wp2_with (fail)
     refine (HA _).out.mono ?_
     rintro e w3 ⟨rfl,b3⟩
     have C3:=Lib.hid ((ai wr.heap.size wr n1).trans b3)
     clear b3
     have hs3:=C3.out.size
     go_wp2_with (first|(at_lookup;refine jJ _ rfl _ _ _ rfl 9 4 Tryz.underlying9 Tryz.underlying147 Tryz.underlying4 (zp _) w.heap.size n _ rfl (HM.out.below C3.out) N hNm rfl ?_)|(at_mapUpdate;refine ou _ rfl _ _ _ _ rfl 9 4 Tryz.underlying9 Tryz.underlying147 Tryz.underlying4 w.heap.size n _ rfl (HM.out.below C3.out) (by unfold maxLen;omega) N hNm true _ _ rfl rfl rfl rfl ?_))
     intro w4 hm4 hg4
     rw [HNL.out,Fb l _ (qB (gH (s.data.toList.drop i)).1)] at hm4
     have HM4:=Lib.hid hm4
     have HO4:=Lib.hid ((gq HO.out C3.out).kept hg4 HNE.out)
     have B4:=Lib.hid ((HB.out.trans (C3.out.mono HB.out.size)).grown hg4 (by have:=HB.out.size;omega) (fun k hk=>by cases hk;exact Nat.le_refl _))
     have hs4:=hg4.size
     clear hm4 hg4
     go_wp2_with (fail)
     refine (HD _ (HT.out.below B4.out).tab (HT.out.below B4.out).err).out.mono ?_
     rintro e w5 ⟨rfl,b5⟩
     have hs5:=b5.size
     go_wp2_with (fail)
     refine (HC _).out.mono ?_
     rintro e w6 ⟨rfl,b6⟩
     have hs6:=b6.size
     have B6:=Lib.hid (b5.trans (b6.mono b5.size))
     have HM6:=Lib.hid (HM4.out.below B6.out)
     have HO6:=Lib.hid (gq HO4.out B6.out)
     have HB6:=Lib.hid (B4.out.trans (B6.out.mono B4.out.size))
     clear b5 b6
     go_wp2_with (at_builtin;refine wpList_append_own _ rfl _ _ 31 rfl (w.heap.size+1) 151 i0 _ 2 32 Tryz.underlying31 hi0 hz0 hz1 hz2 rfl (by decide) _ l.length (fE l) rfl (HO6.out.alloc _) ⟨w6.heap.size,0,none⟩ 1 1 [.string N,.string W] rfl rfl ?c1 ?c2 ?c3 ?c4 ?c5 ?_)
     case c1=>exact Dx _ _ _ _
     case c2=>intro u hu;simp at hu;rcases hu with rfl|rfl<;>rfl
     case c3=>simp [maxLen];omega
     case c4=>omega
     case c5=>simp;omega
     intro v1 w7 hown7 hgr7 _
     have B7:=Lib.hid ((HB6.out.alloc HB6.out.size _).grown hgr7 (by simp;omega) (fun k hk=>by have:=(HO.out.lt k hk).1;omega))
     have HM7:=Lib.hid ((HM6.out.alloc _).kept hgr7 HNE2.out)
     rw [HNV.out,HWV.out,r5] at hown7
     have HO7:=Lib.hid hown7
     clear hown7 hgr7
     go_wp2
     go_step3
     refine ⟨rfl,⟨m,n+1,_,v1,rfl,by rw [List.length_append,List.length_singleton];exact HO7.out,HM7.out,B7.out,hm2,by omega,by rw [List.length_append,List.length_singleton];omega,HST.out⟩,?_⟩
     simp [ae];omega
    ·have hadd:gp l (mS (s.data.toList.drop i)) (gH (s.data.toList.drop i)).1=l:=by
      unfold gp
      rw [if_pos (by rw [←hNl];exact hF)]
     rw [hadd] at hstep
     have HST:=Lib.hid hstep
     clear hx c62 c47 hcl hsp HX hb1 hsf hbeg hstep hbd hnm hNc hN hV hm hNl hVl hadd
     go_wp2_with (fail)
     refine (HG _).out.mono ?_
     rintro e w1 ⟨rfl,n1,rfl⟩
     go_wp2_with (fail)
     refine (HSp _).out.mono ?_
     rintro e w2 ⟨rfl,rfl⟩
     go_wp2_with (fail)
     refine (HA _).out.mono ?_
     rintro e w3 ⟨rfl,b3⟩
     have C3:=Lib.hid ((ai wr.heap.size wr n1).trans b3)
     clear b3
     go_wp2_with (at_lookup;refine jJ _ rfl _ _ _ rfl 9 4 Tryz.underlying9 Tryz.underlying147 Tryz.underlying4 (zp _) w.heap.size n _ rfl (HM.out.below C3.out) N hNm rfl ?_)
     go_wp2
     go_step3
     refine ⟨rfl,⟨m,n,l,lv,rfl,gq HO.out C3.out,HM.out.below C3.out,HB.out.trans (C3.out.mono HB.out.size),hm2,by omega,by omega,HST.out⟩,?_⟩
     simp [ae];omega
   ·obtain rfl:i=s.size:=by omega
    have HN:Hid (T=none):=Lib.hid (by
     have:=HX.out
     rw [List.drop_eq_nil_of_le (by rw [←Lib.size_eq];exact Nat.le_refl _)] at this
     exact za this)
    go_wp2
    simp only [Exit.jump]
    try simp only [Exit.inBlock,Exit.then]
    refine bodyPost_ret (cI rfl _ _ _) rfl ?_
    exact ⟨_,_,_,_,_,_,_,rfl,av _,by rw [HV0.out HN.out,Lib.size_eq],HB.out,fun k h=>by cases h⟩
  ·intro hpass
   go_wp2
   go_step3
   rename_i K hK
   refine hK _ _ (hpass _ _ ?_)
   exact ⟨k,0,[],.slice none 0 0,rfl,World.ownsRow_nil _ _ _ _,BG _ _ _ _,(Below.refl _ w).alloc (Nat.le_refl _) _,hk,Nat.zero_le _,Nat.zero_le _,HK.out⟩
 all_goals
  go_enter Tryz.func98,Tryz.ntmps98
  go_wp2
  refine cV 0 (fun _ _=>False) (fun _ _=>0) rfl (fun _ _ h=>h.elim) ?_
  intro _
  go_wp2
  simp only [Exit.jump]
  try simp only [Exit.inBlock,Exit.then]
  refine bodyPost_ret (cI rfl _ _ _) rfl ?_
  exact ⟨_,_,_,_,_,_,_,rfl,av _,HV.out,Below.refl _ _,fun k h=>by cases h⟩
end Go.Proofs.YtajpoodpbbbkfaaGreatDoor
namespace Go.Proofs.YtajpoodpbbbkfaaGreatDoor
open Go.RowKit Go.Lib
theorem ov {l0:List Ln} {c:UInt8} {t:ab} {l:List Ln} {self:Bool} {n:Nat} (h:E8 l0 c t= .done l self n):(self=false∧n=1∧c=62)∨(self=true∧n=2∧c=47∧t.head?=some 62):=by
 unfold E8 at h
 by_cases hs:cv c=true
 ·rw [if_pos hs] at h;cases h
 ·rw [if_neg hs] at h
  by_cases h62:c=62
  ·rw [if_pos h62] at h;cases h;exact .inl ⟨rfl,rfl,h62⟩
  ·rw [if_neg h62] at h
   by_cases h47:c=47
   ·rw [if_pos h47] at h
    by_cases ht:t.head?=some 62
    ·rw [if_pos ht] at h;cases h;exact .inr ⟨rfl,rfl,h47,ht⟩
    ·rw [if_neg ht] at h;cases h
   ·rw [if_neg h47] at h;cases h
theorem IA {a:At} {c:UInt8} {t:ab} {l:List Ln} {self:Bool} {n:Nat} (h:kP a c t= .done l self n):(self=false∧n=1∧c=62)∨(self=true∧n=2∧c=47∧t.head?=some 62):=by
 have h2:∀l0 nm,OQ l0 nm c t= .done l self n→(self=false∧n=1∧c=62)∨(self=true∧n=2∧c=47∧t.head?=some 62):=by
  intro l0 nm h
  unfold OQ at h
  split at h
  ·cases h
  ·split at h
   ·cases h
   ·exact ov h
 have h5:∀l0 nm v,Ob l0 nm v c t= .done l self n→(self=false∧n=1∧c=62)∨(self=true∧n=2∧c=47∧t.head?=some 62):=by
  intro l0 nm v h
  unfold Ob at h
  split at h
  ·exact ov h
  ·cases h
 cases a with
 |s0 l0=>exact ov h
 |s1 l0 nm=>
  have h:O5 l0 nm c t= .done l self n:=h
  unfold O5 at h
  split at h
  ·exact h2 _ _ h
  ·cases h
 |s2 l0 nm=>exact h2 _ _ h
 |s3 l0 nm=>
  have h:O7 l0 nm c t= .done l self n:=h
  unfold O7 at h
  split at h
  ·cases h
  ·split at h
   ·cases h
   ·split at h
    ·exact ov h
    ·exact h5 _ _ _ h
 |s4 l0 nm v q=>
  have h:Py l0 nm v q c= .done l self n:=h
  unfold Py at h
  split at h<;>cases h
 |s5 l0 nm v=>exact h5 _ _ _ h
theorem zr:∀(t:ab) (a:At) (l:List Ln) (self:Bool) (n:Nat),eW a t=some (l,self,n)→1≤n∧n≤t.length∧t.getD (n-1) 0=62∧(self=true→2≤n∧t.getD (n-2) 0=47)
 |[],a,l,self,n,h=>by rw [dA] at h;exact absurd h (by simp)
 |c::t,a,l,self,n,h=>by
  cases hg:kP a c t with
  |done l' self' n'=>
   rw [y9 hg] at h
   simp only [Option.some.injEq,Prod.mk.injEq] at h
   obtain ⟨-,rfl,rfl⟩:=h
   rcases IA hg with ⟨rfl,rfl,rfl⟩|⟨rfl,rfl,rfl,ht⟩
   ·exact ⟨Nat.le_refl _,by simp,rfl,fun h=>by cases h⟩
   ·cases t with
    |nil=>exact absurd ht (by simp)
    |cons d r=>
     simp only [List.head?_cons,Option.some.injEq] at ht
     subst ht
     exact ⟨by decide,by simp,rfl,fun _=>⟨Nat.le_refl _,rfl⟩⟩
  |more a'=>
   rw [ey hg] at h
   cases hr:eW a' t with
   |none=>rw [hr] at h;exact absurd h (by simp)
   |some r=>
    obtain ⟨l',self',n'⟩:=r
    rw [hr] at h
    simp only [Option.map_some,ue,Option.some.injEq,Prod.mk.injEq] at h
    obtain ⟨-,rfl,rfl⟩:=h
    obtain ⟨h1,h2,h3,h4⟩:=zr t a' l' self' n' hr
    refine ⟨by omega,by rw [List.length_cons];omega,?_,fun hs=>?_⟩
    ·rw [show n'+1-1=(n'-1)+1 by omega,List.getD_cons_succ];exact h3
    ·obtain ⟨h5,h6⟩:=h4 hs
     refine ⟨by omega,?_⟩
     rw [show n'+1-2=(n'-2)+1 by omega,List.getD_cons_succ];exact h6
end Go.Proofs.YtajpoodpbbbkfaaGreatDoor
namespace Go.Proofs.YtajpoodpbbbkfaaGreatDoor
open Go.RowKit Go.Lib
end Go.Proofs.YtajpoodpbbbkfaaGreatDoor
