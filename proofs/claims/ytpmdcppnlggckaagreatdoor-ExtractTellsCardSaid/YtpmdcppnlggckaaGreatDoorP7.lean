/-
  Texts laid together: AttMath, AttScan, AttAdd, AttRef, AttEnds, AttOne, AttKnow, AttCode, AttGood, AttRead.
-/
import Derived.Test.YtpmdcppnlggckaaGreatDoorP4
import Derived.Test.YtpmdcppnlggckaaGreatDoorP6
import Derived.Test.YtpmdcppnlggckaaGreatDoorP3
import Derived.Test.YtpmdcppnlggckaaGreatDoorP1
import Derived.Test.YtpmdcppnlggckaaGreatDoorPT
import Derived.Maps.OwnOps
import Derived.Maps.Views
import Derived.ProofKit
import Derived.WalkKit
set_option maxHeartbeats 16000000
set_option maxRecDepth 100000
namespace Go.Proofs.YtpmdcppnlggckaaGreatDoor
open Go.RowKit Go.Lib
def cd (c:UInt8):Bool:=co (c.toNat:Int)
def aL (name:ab):ab:=ap (aD name)
noncomputable def oF (val:ab):ab:=ap (ej true val)
noncomputable def fA (l:List Ln) (name val:ab):List Ln:=if l.any (fun r=>r.1==aL name) then l else l++[(aL name,oF val)]
inductive At where
 |s0 (l:List Ln)
 |s1 (l:List Ln) (name:ab)
 |s2 (l:List Ln) (name:ab)
 |s3 (l:List Ln) (name:ab)
 |s4 (l:List Ln) (name val:ab) (q:UInt8)
 |s5 (l:List Ln) (name val:ab)
inductive yW where
 |more (a:At)
 |done (l:List Ln) (self:Bool) (n:Nat)
def o5 (c:UInt8):Bool:=cd c||c==47||c==62||c==61
def BS (l:List Ln) (c:UInt8) (t:ab):yW:=
 if cd c then .more (.s0 l) else if c=62 then .done l false 1
 else if c=47 then (if t.head?=some 62 then .done l true 2 else .more (.s0 l))
 else .more (.s1 l [c])
noncomputable def KK (l:List Ln) (name:ab) (c:UInt8) (t:ab):yW:=
 if cd c then .more (.s2 l name) else if c=61 then .more (.s3 l name) else BS (fA l name []) c t
noncomputable def K9 (l:List Ln) (name:ab) (c:UInt8) (t:ab):yW:=if o5 c then KK l name c t else .more (.s1 l (name++[c]))
noncomputable def Ka (l:List Ln) (name val:ab) (c:UInt8) (t:ab):yW:=if cd c||c==62 then BS (fA l name val) c t else .more (.s5 l name (val++[c]))
noncomputable def La (l:List Ln) (name:ab) (c:UInt8) (t:ab):yW:=
 if cd c then .more (.s3 l name) else if c=34∨c=39 then .more (.s4 l name [] c) else if c=62 then BS (fA l name []) c t else Ka l name [] c t
noncomputable def LI (l:List Ln) (name val:ab) (q c:UInt8):yW:=if c=q then .more (.s0 (fA l name val)) else .more (.s4 l name (val++[c]) q)
noncomputable def jL:At→UInt8→ab→yW
 | .s0 l,c,t=>BS l c t
 | .s1 l name,c,t=>K9 l name c t
 | .s2 l name,c,t=>KK l name c t
 | .s3 l name,c,t=>La l name c t
 | .s4 l name val q,c,_=>LI l name val q c
 | .s5 l name val,c,t=>Ka l name val c t
abbrev lr:=List Ln × Bool × Nat
def rL (k:Nat) (r:lr):lr:=(r.1,r.2.1,r.2.2+k)
noncomputable def eo:At→ab→Option lr
 |_,[]=>none
 |a,c::t=>match jL a c t with
  | .done l self n=>some (l,self,n)
  | .more a'=>(eo a' t).map (rL 1)
theorem dc (a:At):eo a []=none:=by cases a<;>rfl
theorem dV {a a':At} {c:UInt8} {t:ab} (h:jL a c t= .more a'):eo a (c::t)=(eo a' t).map (rL 1):=by
 rw [eo,h]
theorem wq {a:At} {c:UInt8} {t:ab} {l:List Ln} {self:Bool} {n:Nat} (h:jL a c t= .done l self n):eo a (c::t)=some (l,self,n):=by
 rw [eo,h]
theorem iJ {a b:At} {c:UInt8} {t:ab} (h:jL a c t=jL b c t):eo a (c::t)=eo b (c::t):=by
 rw [eo,eo,h]
noncomputable def eh (i:Nat) (a:At) (t:ab):Option lr:=(eo a t).map (rL i)
theorem Ib (i:Nat) (r:Option lr):(r.map (rL 1)).map (rL i)=r.map (rL (i+1)):=by
 cases r with
 |none=>rfl
 |some r=>simp [rL];omega
theorem nO {i:Nat} {a a':At} {c:UInt8} {t:ab} {T:Option lr} (h:jL a c t= .more a') (hT:eh i a (c::t)=T):eh (i+1) a' t=T:=by
 unfold eh at hT⊢
 rw [dV h,Ib] at hT
 exact hT
theorem nP {i:Nat} {a:At} {c:UInt8} {t:ab} {l:List Ln} {self:Bool} {n:Nat} {T:Option lr} (h:jL a c t= .done l self n) (hT:eh i a (c::t)=T):T=some (l,self,i+n):=by
 unfold eh at hT
 rw [wq h] at hT
 rw [←hT];simp [rL];omega
theorem BT {i:Nat} {a b:At} {c:UInt8} {t:ab} {T:Option lr} (h:jL a c t=jL b c t) (hT:eh i a (c::t)=T):eh i b (c::t)=T:=by
 unfold eh at hT⊢
 rw [←iJ h];exact hT
theorem ws {i:Nat} {a:At} {T:Option lr} (hT:eh i a []=T):T=none:=by
 unfold eh at hT;rw [dc] at hT;exact hT.symm
noncomputable def kj (s:ab) (a:Int):List Ln × Bool × Int × Bool:=
 if 0≤a∧a≤(s.length:Int) then match eh a.toNat (.s0 []) (s.drop a.toNat) with
  |none=>([],false,(s.length:Int),false)
  |some (l,self,n)=>(l,self,(n:Int),true)
 else ([],false,a,false)
theorem kQ (s:ab) (a:Int) (h:¬(0≤a∧a≤(s.length:Int))):kj s a=([],false,a,false):=if_neg h
theorem lS (s:ab) (k:Nat) (h:k≤s.length) (hT:eh k (.s0 []) (s.drop k)=none):kj s (k:Int)=([],false,(s.length:Int),false):=by
 unfold kj
 rw [if_pos ⟨by omega,by omega⟩,show ((k:Nat):Int).toNat=k by omega,hT]
theorem lU (s:ab) (k:Nat) (h:k≤s.length) (l:List Ln) (self:Bool) (n:Nat) (hT:eh k (.s0 []) (s.drop k)=some (l,self,n)):kj s (k:Int)=(l,self,(n:Int),true):=by
 unfold kj
 rw [if_pos ⟨by omega,by omega⟩,show ((k:Nat):Int).toNat=k by omega,hT]
theorem mC (l:List Ln) (name val:ab):(fA l name val).length≤l.length+1:=by
 unfold fA;split
 ·omega
 ·simp
theorem sN {l:List Ln} {c:UInt8} {t:ab} (h:cd c=true):jL (.s0 l) c t= .more (.s0 l):=if_pos h
theorem AC {l:List Ln} {c:UInt8} {t:ab} (h:c=62):jL (.s0 l) c t= .done l false 1:=by subst h;rfl
theorem wt {l:List Ln} {c:UInt8} {t:ab} (h:c=47) (ht:t.head?=some 62):jL (.s0 l) c t= .done l true 2:=by
 subst h
 show BS l 47 t=_
 unfold BS
 rw [if_neg (by decide),if_neg (by decide),if_pos rfl,if_pos ht]
theorem lW {l:List Ln} {c:UInt8} {t:ab} (h:c=47) (ht:t.head?≠some 62):jL (.s0 l) c t= .more (.s0 l):=by
 subst h
 show BS l 47 t=_
 unfold BS
 rw [if_neg (by decide),if_neg (by decide),if_pos rfl,if_neg ht]
theorem wu {l:List Ln} {c:UInt8} {t:ab} (h:cd c=false) (h1:c≠62) (h2:c≠47):jL (.s0 l) c t= .more (.s1 l [c]):=by
 show BS l c t=_
 unfold BS
 rw [h,if_neg Bool.false_ne_true,if_neg h1,if_neg h2]
theorem mD {l:List Ln} {name:ab} {c:UInt8} {t:ab} (h:o5 c=true):jL (.s1 l name) c t=jL (.s2 l name) c t:=if_pos h
theorem wv {l:List Ln} {name:ab} {c:UInt8} {t:ab} (h:o5 c=false):jL (.s1 l name) c t= .more (.s1 l (name++[c])):=by
 show K9 l name c t=_
 unfold K9;rw [h];rfl
theorem sO {l:List Ln} {name:ab} {c:UInt8} {t:ab} (h:cd c=true):jL (.s2 l name) c t= .more (.s2 l name):=if_pos h
theorem EA {l:List Ln} {name:ab} {c:UInt8} {t:ab} (h:c=61):jL (.s2 l name) c t= .more (.s3 l name):=by subst h;rfl
theorem ww {l:List Ln} {name:ab} {c:UInt8} {t:ab} (h:cd c=false) (h1:c≠61):jL (.s2 l name) c t=jL (.s0 (fA l name [])) c t:=by
 show KK l name c t=BS _ c t
 unfold KK;rw [h,if_neg Bool.false_ne_true,if_neg h1]
theorem sP {l:List Ln} {name:ab} {c:UInt8} {t:ab} (h:cd c=true):jL (.s3 l name) c t= .more (.s3 l name):=if_pos h
theorem nQ {l:List Ln} {name:ab} {c:UInt8} {t:ab} (h:c=34∨c=39):jL (.s3 l name) c t= .more (.s4 l name [] c):=by
 rcases h with rfl|rfl<;>rfl
theorem AD {l:List Ln} {name:ab} {c:UInt8} {t:ab} (h:c=62):jL (.s3 l name) c t=jL (.s0 (fA l name [])) c t:=by subst h;rfl
theorem wz {l:List Ln} {name:ab} {c:UInt8} {t:ab} (h:cd c=false) (h1:¬(c=34∨c=39)) (h2:c≠62):jL (.s3 l name) c t=jL (.s5 l name []) c t:=by
 show La l name c t=Ka l name [] c t
 unfold La;rw [h,if_neg Bool.false_ne_true,if_neg h1,if_neg h2]
theorem AE {l:List Ln} {name val:ab} {q c:UInt8} {t:ab} (h:c=q):jL (.s4 l name val q) c t= .more (.s0 (fA l name val)):=if_pos h
theorem wB {l:List Ln} {name val:ab} {q c:UInt8} {t:ab} (h:c≠q):jL (.s4 l name val q) c t= .more (.s4 l name (val++[c]) q):=if_neg h
theorem uo {l:List Ln} {name val:ab} {c:UInt8} {t:ab} (h:(cd c||c==62)=true):jL (.s5 l name val) c t=jL (.s0 (fA l name val)) c t:=if_pos h
theorem wC {l:List Ln} {name val:ab} {c:UInt8} {t:ab} (h:(cd c||c==62)=false):jL (.s5 l name val) c t= .more (.s5 l name (val++[c])):=by
 show Ka l name val c t=_
 unfold Ka;rw [h];rfl
end Go.Proofs.YtpmdcppnlggckaaGreatDoor
namespace Go.Proofs.YtpmdcppnlggckaaGreatDoor
open Go.RowKit Go.Lib
def dW (c:UInt8):Bool:= !(cd c||c==62)
def a5 (c:UInt8):Bool:= !o5 c
theorem uq (p:UInt8→Bool) (l:ab):l.take (l.takeWhile p).length=l.takeWhile p:=by
 conv=>lhs;arg 2;rw [←List.takeWhile_append_dropWhile (p:=p) (l:=l)]
 exact List.take_left
theorem jA (p:UInt8→Bool) (l:ab):l.drop (l.takeWhile p).length=l.dropWhile p:=by
 conv=>lhs;arg 2;rw [←List.takeWhile_append_dropWhile (p:=p) (l:=l)]
 exact List.drop_left
theorem wD (p:UInt8→Bool) (l:ab):(l.takeWhile p).length≤l.length:=(List.takeWhile_sublist p).length_le
theorem lX {p:UInt8→Bool} {c:UInt8} {t:ab} (h:p c=true):(c::t).takeWhile p=c::t.takeWhile p:=by rw [List.takeWhile_cons,if_pos h]
theorem oG {p:UInt8→Bool} {c:UInt8} {t:ab} (h:p c=false):(c::t).takeWhile p=[]:=by rw [List.takeWhile_cons,h];rfl
theorem nR {p:UInt8→Bool} {c:UInt8} {t:ab} (h:p c=true):(c::t).dropWhile p=t.dropWhile p:=by rw [List.dropWhile_cons,if_pos h]
theorem sQ {p:UInt8→Bool} {c:UInt8} {t:ab} (h:p c=false):(c::t).dropWhile p=c::t:=by rw [List.dropWhile_cons,h];rfl
theorem pr (p:UInt8→Bool):∀(l:ab) (c:UInt8) (t:ab),l.dropWhile p=c::t→p c=false
 |[],c,t,h=>by simp at h
 |d::l,c,t,h=>by
  cases hp:p d
  ·rw [sQ hp] at h
   injection h with h1 h2
   rw [←h1];exact hp
  ·rw [nR hp] at h;exact pr p l c t h
theorem ey (a b:Nat) (r:Option lr):(r.map (rL a)).map (rL b)=r.map (rL (a+b)):=by
 cases r with
 |none=>rfl
 |some r=>simp [rL,Nat.add_assoc]
theorem mE (r:Option lr):r.map (rL 0)=r:=by
 cases r<;>rfl
theorem Jn (l:List Ln):∀(t nm:ab),eo (.s1 l nm) t=(eo (.s2 l (nm++t.takeWhile a5)) (t.dropWhile a5)).map (rL (t.takeWhile a5).length)
 |[],nm=>by rw [List.dropWhile_nil,dc,dc];rfl
 |c::t,nm=>by
  cases h:o5 c
  ·have hn:a5 c=true:=by unfold a5;rw [h];rfl
   rw [dV (wv h),Jn l t (nm++[c]),lX hn,nR hn,ey,List.append_assoc,List.length_cons];rfl
  ·have hn:a5 c=false:=by unfold a5;rw [h];rfl
   rw [oG hn,sQ hn,List.append_nil,iJ (mD h)];exact (mE _).symm
theorem Jo (l:List Ln) (nm:ab):∀t:ab,eo (.s2 l nm) t=(eo (.s2 l nm) (t.dropWhile cd)).map (rL (t.takeWhile cd).length)
 |[]=>by rw [List.dropWhile_nil,dc];rfl
 |c::t=>by
  cases h:cd c
  ·rw [oG h,sQ h];exact (mE _).symm
  ·rw [dV (sO h),Jo l nm t,lX h,nR h,ey];rfl
theorem Jp (l:List Ln) (nm:ab):∀t:ab,eo (.s3 l nm) t=(eo (.s3 l nm) (t.dropWhile cd)).map (rL (t.takeWhile cd).length)
 |[]=>by rw [List.dropWhile_nil,dc];rfl
 |c::t=>by
  cases h:cd c
  ·rw [oG h,sQ h];exact (mE _).symm
  ·rw [dV (sP h),Jp l nm t,lX h,nR h,ey];rfl
theorem Jq (l:List Ln) (nm:ab):∀(t v:ab),eo (.s5 l nm v) t=(eo (.s0 (fA l nm (v++t.takeWhile dW))) (t.dropWhile dW)).map (rL (t.takeWhile dW).length)
 |[],v=>by rw [List.dropWhile_nil,dc,dc];rfl
 |c::t,v=>by
  cases h:(cd c||c==62)
  ·have hn:dW c=true:=by unfold dW;rw [h];rfl
   rw [dV (wC h),Jq l nm t (v++[c]),lX hn,nR hn,ey,List.append_assoc,List.length_cons];rfl
  ·have hn:dW c=false:=by unfold dW;rw [h];rfl
   rw [oG hn,sQ hn,List.append_nil,iJ (uo h)];exact (mE _).symm
theorem Jr (l : List Ln) (nm : ab) (q : UInt8) : ∀ (t v : ab), eo (.s4 l nm v q) t = (eo (.s0 (fA l nm (v ++ t.takeWhile (· != q)))) ((t.dropWhile (· != q)).tail)).map (rL ((t.takeWhile (· != q)).length + 1))
  | [], v => by rw [List.dropWhile_nil, dc, List.tail_nil, dc]; rfl
  | c :: t, v => by
    by_cases h : c = q
    · have hn : (c != q) = false := by simpa using h
      rw [oG (p := (· != q)) hn, sQ (p := (· != q)) hn, List.append_nil, dV (AE h), List.tail_cons]; rfl
    · have hn : (c != q) = true := by simpa using h
      rw [dV (wB h), Jr l nm q t (v ++ [c]), lX (p := (· != q)) hn, nR (p := (· != q)) hn, ey, List.append_assoc, List.length_cons]; rfl
def fW : ab → ab × Nat
  | [] => ([], 0)
  | c :: t => if c = 34 ∨ c = 39 then (t.takeWhile (· != c), (c :: t).length - ((t.dropWhile (· != c)).tail).length)
    else ((c :: t).takeWhile dW, ((c :: t).takeWhile dW).length)
def lu (l:ab):ab:=l.take 1++(l.drop 1).takeWhile a5
def Kc (r:ab) (k:Nat):ab × Nat:=
 if r.head?=some 61 then ((fW ((r.drop 1).dropWhile cd)).1,k+1+((r.drop 1).takeWhile cd).length+(fW ((r.drop 1).dropWhile cd)).2) else ([],k)
def fK (l:ab):ab × Nat:=
 Kc ((l.drop (lu l).length).dropWhile cd) ((lu l).length+((l.drop (lu l).length).takeWhile cd).length)
theorem iL (c : UInt8) (t : ab) : fW (c :: t) = if c = 34 ∨ c = 39 then (t.takeWhile (· != c), (c :: t).length - ((t.dropWhile (· != c)).tail).length)
    else ((c :: t).takeWhile dW, ((c :: t).takeWhile dW).length) := rfl
theorem Ic (l:ab):(fW l).2≤l.length:=by
 cases l with
 |nil=>exact Nat.le_refl _
 |cons c t=>
  rw [iL]
  split
  ·exact Nat.sub_le _ _
  ·exact wD _ _
theorem EB (l : ab) : (fW l).1.length ≤ l.length := by
  cases l with
  | nil => exact Nat.le_refl _
  | cons c t =>
    rw [iL]
    split
    · have := wD (· != c) t
      simp only [List.length_cons]; omega
    · exact wD _ _
theorem Kd (l:ab):(lu l).length≤l.length:=by
 cases l with
 |nil=>exact Nat.le_refl _
 |cons c t=>
  have:=wD a5 t
  simp [lu];omega
theorem Id (l : List Ln) (nm t : ab) : eo (.s3 l nm) (t.dropWhile cd) = (eo (.s0 (fA l nm (fW (t.dropWhile cd)).1)) ((t.dropWhile cd).drop (fW (t.dropWhile cd)).2)).map (rL (fW (t.dropWhile cd)).2) := by
  cases h : t.dropWhile cd with
  | nil => rw [dc, List.drop_nil, dc]; rfl
  | cons c r =>
    have hs := pr cd t c r h
    by_cases hq : c = 34 ∨ c = 39
    · have e : fW (c :: r) = (r.takeWhile (· != c), (c :: r).length - ((r.dropWhile (· != c)).tail).length) := if_pos hq
      have hl : (r.takeWhile (· != c)).length + (r.dropWhile (· != c)).length = r.length := by rw [← List.length_append, List.takeWhile_append_dropWhile]
      have ht := List.length_tail (l := r.dropWhile (· != c))
      rw [e, dV (nQ hq), Jr, List.nil_append, ey]
      simp only
      cases hd : r.dropWhile (· != c) with
      | nil =>
        rw [hd] at hl
        rw [List.tail_nil, dc, List.length_nil, List.drop_eq_nil_of_le (Nat.le_of_eq (Nat.sub_zero _).symm), dc]; rfl
      | cons d z =>
        rw [hd] at hl
        rw [List.tail_cons, List.length_cons]
        rw [List.length_cons] at hl
        rw [show r.length + 1 - z.length = (r.takeWhile (· != c)).length + 1 + 1 by omega, List.drop_succ_cons, ← List.drop_drop, jA, hd]; rfl
    · by_cases h62 : c = 62
      · have hv : dW c = false := by rw [h62]; decide
        have e : fW (c :: r) = ([], 0) := by rw [iL, if_neg hq, oG hv]; rfl
        rw [e, iJ (AD h62), List.drop_zero]; exact (mE _).symm
      · have e : fW (c :: r) = ((c :: r).takeWhile dW, ((c :: r).takeWhile dW).length) := if_neg hq
        rw [e, iJ (wz hs hq h62), Jq, List.nil_append]
        simp only
        rw [jA]
def EC (c:UInt8):Bool:= !(cd c||c==62||c==47)
theorem If (l:List Ln) (c:UInt8) (t:ab) (h:EC c=true):eo (.s0 l) (c::t)=(eo (.s0 (fA l (lu (c::t)) (fK (c::t)).1)) ((c::t).drop (fK (c::t)).2)).map (rL (fK (c::t)).2):=by
 have hb:cd c=false∧c≠62∧c≠47:=by
  unfold EC at h
  cases hs:cd c<;>rw [hs] at h<;>simp at h
  exact ⟨rfl,h.1,h.2⟩
 have en:lu (c::t)=c::t.takeWhile a5:=rfl
 have el:(lu (c::t)).length=(t.takeWhile a5).length+1:=by rw [en];rfl
 have ed:(c::t).drop (lu (c::t)).length=t.dropWhile a5:=by rw [el,List.drop_succ_cons,jA]
 rw [dV (wu hb.1 hb.2.1 hb.2.2),Jn,Jo,ey,ey,List.cons_append,List.nil_append]
 obtain ⟨N,hN⟩:∃N,lu (c::t)=N:=⟨_,rfl⟩
 obtain ⟨r,hr⟩:∃r,(t.dropWhile a5).dropWhile cd=r:=⟨_,rfl⟩
 obtain ⟨K,hK⟩:∃K,((t.dropWhile a5).takeWhile cd).length+((t.takeWhile a5).length+1)=K:=⟨_,rfl⟩
 have hdr:(c::t).drop K=r:=by
  rw [←hK,show ((t.dropWhile a5).takeWhile cd).length+((t.takeWhile a5).length+1)=(lu (c::t)).length+((t.dropWhile a5).takeWhile cd).length by rw [el];omega,←List.drop_drop,ed,jA,hr]
 have ea:fK (c::t)=if r.head?=some 61 then ((fW ((r.drop 1).dropWhile cd)).1,K+1+((r.drop 1).takeWhile cd).length+(fW ((r.drop 1).dropWhile cd)).2) else ([],K):=by
  unfold fK
  rw [ed,hr,show (lu (c::t)).length+((t.dropWhile a5).takeWhile cd).length=K by rw [el];omega]
  rfl
 rw [show (c::t.takeWhile a5)=N by rw [←hN,en],hN,hr,hK,ea]
 cases r with
 |nil=>rw [if_neg (by simp),dc];simp only;rw [hdr,dc]
 |cons d z=>
  have hs:=pr cd _ d z hr
  by_cases h61:d=61
  ·rw [if_pos (by rw [h61];rfl),List.drop_one,List.tail_cons,dV (EA h61),Jp,ey,ey,Id,ey]
   simp only
   rw [show (c::t).drop (K+1+(z.takeWhile cd).length+(fW (z.dropWhile cd)).2)=(z.dropWhile cd).drop (fW (z.dropWhile cd)).2 by
    rw [←List.drop_drop,←List.drop_drop,←List.drop_drop,hdr,List.drop_one,List.tail_cons,jA]]
   rw [show (fW (z.dropWhile cd)).2+((z.takeWhile cd).length+(1+K))=K+1+(z.takeWhile cd).length+(fW (z.dropWhile cd)).2 by omega]
  ·rw [if_neg (by intro h;injection h with h;exact h61 h),iJ (ww hs h61)]
   simp only
   rw [hdr]
theorem wE (c:UInt8) (t:ab):1≤(fK (c::t)).2∧(fK (c::t)).2≤(c::t).length∧(fK (c::t)).1.length≤(c::t).length:=by
 have en:lu (c::t)=c::t.takeWhile a5:=rfl
 have el:(lu (c::t)).length=(t.takeWhile a5).length+1:=by rw [en];rfl
 have ed:(c::t).drop (lu (c::t)).length=t.dropWhile a5:=by rw [el,List.drop_succ_cons,jA]
 have h1:(t.takeWhile a5).length+(t.dropWhile a5).length=t.length:=by rw [←List.length_append,List.takeWhile_append_dropWhile]
 have h2:((t.dropWhile a5).takeWhile cd).length+((t.dropWhile a5).dropWhile cd).length=(t.dropWhile a5).length:=by rw [←List.length_append,List.takeWhile_append_dropWhile]
 unfold fK
 rw [ed,el]
 unfold Kc
 split
 ·rename_i hh
  obtain ⟨r,hr⟩:∃r,(t.dropWhile a5).dropWhile cd=r:=⟨_,rfl⟩
  rw [hr] at hh h2⊢
  cases r with
  |nil=>simp at hh
  |cons d z=>
   have h3:(z.takeWhile cd).length+(z.dropWhile cd).length=z.length:=by rw [←List.length_append,List.takeWhile_append_dropWhile]
   have h4:=Ic (z.dropWhile cd)
   have h5:=EB (z.dropWhile cd)
   simp only [List.drop_succ_cons,List.drop_zero,List.length_cons] at*
   omega
 ·simp only [List.length_cons,List.length_nil]
  omega
end Go.Proofs.YtpmdcppnlggckaaGreatDoor
namespace Go.Proofs.YtpmdcppnlggckaaGreatDoor
open Go.RowKit Go.Lib
theorem sR:(Tryz.prog.info? 150).map (fun i=>(i.zero,i.size,i.bytes))=some (some (.agg #[.string ⟨#[]⟩,.string ⟨#[]⟩]),2,32):=by kernel_rfl
theorem fB {w w':World} {base e size:Nat} {v:Value} {n:Nat} {xs:List Value} (h:w.ownsRow base e size v n xs) (hb:Below w.heap.size w w'):w'.ownsRow base e size v n xs:=
 h.kept (row:=none) ⟨hb.os,hb.tape,hb.output,hb.size,fun k hk _=>hb.block k hk⟩ (Classical.em _)
theorem Ig (l:List Ln) (N:ab) (h:∀j (hj:j<l.length),l[j].1≠N):l.any (fun r=>r.1==N)=false:=by
 rw [List.any_eq_false]
 intro r hr
 obtain ⟨j,hj,rfl⟩:=List.getElem_of_mem hr
 simpa using h j hj
theorem Ke (l:List Ln) (N:ab) (j:Nat) (hj:j<l.length) (h:l[j].1=N):l.any (fun r=>r.1==N)=true:=by
 rw [List.any_eq_true]
 exact ⟨l[j],List.getElem_mem hj,by simpa using h⟩
theorem jB (base : Nat) (v : Value) (l : List Ln) (name val : ByteArray) (w : World) (hbase : base ≤ w.heap.size) (hown : w.ownsRow base 150 2 v l.length (eU l)) (hn : name.size ≤ 1048576) (hv : val.size ≤ 1048576) (hl : l.length ≤ 1048576) :
    Calls Tryz.prog 151 #[v, .string name, .string val] w fun e w' => ∃ v', e = .returned v' ∧ w'.ownsRow base 150 2 v' (fA l name.data.toList val.data.toList).length (eU (fA l name.data.toList val.data.toList)) ∧ Below base w w' := by
  obtain ⟨i0, hi0, hz0, hz1, hz2⟩ := info_parts sR
  obtain ⟨a, cap, rfl, hrows⟩ := gL l hown
  have HO := Lib.hid hown
  have HR := Lib.hid hrows
  have hA : ∀ o, fA l name.data.toList val.data.toList = o → Hid ((if l.any (fun r => r.1 == aL name.data.toList) then l else l ++ [(aL name.data.toList, oF val.data.toList)]) = o) := fun o h => Lib.hid h
  have HL := fun w => Lib.hid (mg name w (by omega))
  have HC := fun w => Lib.hid (aZ (oY name) w (by rw [iy]; omega))
  have HD := fun w => Lib.hid (iq val true w (by omega))
  have hds : (⟨(ej true val.data.toList).toArray⟩ : ByteArray).size ≤ 1099511627776 := by
    rw [Lib.size_eq, List.toList_toArray]
    have := ki true val.data.toList.length val.data.toList (Nat.le_refl _)
    rw [← Lib.size_eq] at this
    omega
  have HE := fun w => Lib.hid (aZ ⟨(ej true val.data.toList).toArray⟩ w hds)
  rw [eJ] at HC
  rw [List.toList_toArray] at HE
  obtain ⟨Q, hQ⟩ : ∃ Q, fA l name.data.toList val.data.toList = Q := ⟨_, rfl⟩
  have HA := hA _ hQ
  rw [hQ]
  obtain ⟨N, hN⟩ : ∃ N, aL name.data.toList = N := ⟨_, rfl⟩
  obtain ⟨V, hV⟩ : ∃ V, oF val.data.toList = V := ⟨_, rfl⟩
  rw [hN, hV] at HA
  rw [show ap (aD name.data.toList) = N from hN] at HC
  rw [show ap (ej true val.data.toList) = V from hV] at HE
  obtain ⟨D, hD⟩ : ∃ D : ByteArray, ⟨(ej true val.data.toList).toArray⟩ = D := ⟨_, rfl⟩
  rw [hD] at HD HE
  clear hown hrows hA hQ hN hV hD hds
  go_enter Tryz.func151, Tryz.ntmps151
  go_wp2_with (fail)
  refine (HL _).out.mono ?_
  rintro e w1 ⟨rfl, b1⟩
  go_wp2_with (fail)
  refine (HC _).out.mono ?_
  rintro e w2 ⟨rfl, b2⟩
  have c2 := b1.trans (b2.mono b1.size)
  have hs2 := c2.size
  go_wp2
  go_loopw [8] (fun v wr => ∃ i : Nat, v = .int .i64 (i : Int) ∧ w2 = wr ∧ i ≤ l.length ∧ ∀ j (hj : j < l.length), j < i → l[j].1 ≠ N) (fun v _ => l.length - (ae v).toNat)
  case atStart => exact ⟨0, rfl, rfl, Nat.zero_le _, fun j _ h => by omega⟩
  case round =>
    obtain ⟨i, rfl, rfl, hi, hno⟩ := hrel
    by_cases hlt : i < l.length
    · obtain ⟨x, rfl, hc1, -⟩ := (HR.out.below c2 (Nat.le_refl _)).2.2.2 i hlt
      by_cases hk : l[i].1 = N
      · have e1 := Ke l N i hlt hk
        have HQ : Hid (l = Q) := Lib.hid (by have := HA.out; rwa [e1, if_pos rfl] at this)
        rw [hk] at hc1
        clear hno hk e1
        unfold fo at hc1
        go_wp2
        go_ret
        exact ⟨_, rfl, by rw [← HQ.out]; exact fB HO.out c2, c2.mono hbase⟩
      · obtain ⟨K, hK⟩ : ∃ K, l[i].1 = K := ⟨_, rfl⟩
        have HNO := Lib.hid (show ∀ j (hj : j < l.length), j < i + 1 → l[j].1 ≠ N from fun j hj h => by
          rcases Nat.lt_or_ge j i with h2 | h2
          · exact hno j hj h2
          · have : j = i := by omega
            subst this; exact hk)
        have hb : (K == N) = false := by rw [beq_eq_false_iff_ne, ← hK]; exact hk
        rw [hK] at hc1
        clear hno hk hK
        unfold fo at hc1
        go_wp2
        go_roundw
        case rel => exact ⟨i + 1, by go_num, trivial, by omega, HNO.out⟩
        case measure => simp [ae]; omega
    · have e1 := Ig l N (fun j hj => hno j hj (by omega))
      have HQ : Hid (l ++ [(N, V)] = Q) := Lib.hid (by have := HA.out; rwa [e1, if_neg Bool.false_ne_true] at this)
      clear hno e1
      go_wp2_with (fail)
      refine (HD _).out.mono ?_
      rintro e w3 ⟨rfl, b3⟩
      have c3 := c2.trans (b3.mono c2.size)
      go_wp2_with (fail)
      refine (HE _).out.mono ?_
      rintro e w4 ⟨rfl, b4⟩
      have c4 := c3.trans (b4.mono c3.size)
      have HOW := Lib.hid (fB HO.out c4)
      have hs4 := c4.size
      go_wp2_with (at_builtin; refine wpList_append_own _ rfl _ _ 52 rfl base 150 i0 _ 2 32 Tryz.underlying52 hi0 hz0 hz1 hz2 rfl (by decide) _ l.length (eU l) rfl (HOW.out.alloc _) ⟨w4.heap.size, 0, none⟩ 1 1 [fo N, fo V] rfl rfl ?c1 ?c2 ?c3 ?c4 ?c5 ?_)
      case c1 => exact As _ _ _ _
      case c2 => intro u hu; simp at hu; rcases hu with rfl | rfl <;> rfl
      case c3 => simp [maxLen]; omega
      case c4 => omega
      case c5 => simp; omega
      intro v1 w5 hown1 hgr1 _
      have B5 : Below base w w5 := ((c4.mono hbase).alloc (by omega) _).grown hgr1 (by simp; omega) (fun k hk => (HO.out.lt k hk).1)
      rw [p6, HQ.out, show l.length + 1 = Q.length by rw [← HQ.out]; simp] at hown1
      clear hgr1
      have HB := Lib.hid B5
      have HW := Lib.hid hown1
      clear B5 hown1
      go_wp2
      go_ret
      exact ⟨_, rfl, HW.out, HB.out⟩
end Go.Proofs.YtpmdcppnlggckaaGreatDoor
namespace Go.Proofs.YtpmdcppnlggckaaGreatDoor
open Go.RowKit Go.Lib
theorem eb {s:ByteArray} {i:Nat} (h:i<s.size) {a a':At} {T:Option lr} (hg:jL a s[i] (s.data.toList.drop (i+1))= .more a') (hT:eh i a (s.data.toList.drop i)=T):eh (i+1) a' (s.data.toList.drop (i+1))=T:=by
 rw [aj s i h] at hT;exact nO hg hT
theorem AF {s:ByteArray} {i:Nat} (h:i<s.size) {a:At} {l:List Ln} {self:Bool} {n:Nat} {T:Option lr} (hg:jL a s[i] (s.data.toList.drop (i+1))= .done l self n) (hT:eh i a (s.data.toList.drop i)=T):T=some (l,self,i+n):=by
 rw [aj s i h] at hT;exact nP hg hT
theorem go {s:ByteArray} {i:Nat} (h:i<s.size) {a b:At} {T:Option lr} (hg:jL a s[i] (s.data.toList.drop (i+1))=jL b s[i] (s.data.toList.drop (i+1))) (hT:eh i a (s.data.toList.drop i)=T):eh i b (s.data.toList.drop i)=T:=by
 rw [aj s i h] at hT⊢;exact BT hg hT
theorem Kf {s:ByteArray} {i:Nat} (h:¬i<s.size) {a:At} {T:Option lr} (hT:eh i a (s.data.toList.drop i)=T):T=none:=by
 rw [List.drop_eq_nil_of_le (by rw [←Lib.size_eq];omega)] at hT;exact ws hT
theorem nT (s:ByteArray) (i:Nat):(s.data.toList.drop (i+1)).head?=if h:i+1<s.size then some s[i+1] else none:=by
 by_cases h:i+1<s.size
 ·rw [dif_pos h,aj s (i+1) h];rfl
 ·rw [dif_neg h,List.drop_eq_nil_of_le (by rw [←Lib.size_eq];omega)];rfl
theorem us (s:ByteArray) (i:Nat) (h:i<s.size) (N:ByteArray):(N++s.extract i (i+1)).data.toList=N.data.toList++[s[i]]:=by
 rw [ByteArray.data_append,Array.toList_append,ct s i h]
theorem cq {fn:Func} {t u v x:Tmp} (h:fn.results=#[.tmp t,.tmp u,.tmp v,.tmp x]) (tmps:Array Value) (P:Program) (w:World):(results fn tmps).run P w= .ok (.tuple #[tmps.getD t undef,tmps.getD u undef,tmps.getD v undef,tmps.getD x undef]) w:=by
 simp [results,h]
def Js (s:ByteArray) (a:Int) (w:World) (e:Ending) (w':World):Prop:=
 ∃ad len cap l self n ok,e= .returned (.tuple #[.slice ad len cap,.bool self,.int .i64 n,.bool ok])∧bU w' ad len cap l∧kj s.data.toList a=(l,self,n,ok)∧Below w.heap.size w w'∧∀k,(Value.slice ad len cap).ownBlock=some k→w.heap.size≤k
def fL (k:Int):Nat:=if k=1∨k=3 then 2 else if k=2∨k=5 then 1 else 0
theorem qq (s:ByteArray) (a:Int) (w:World) (hs:s.size≤1048576) (ha: -9223372036854775808≤a∧a≤9223372036854775807):Calls Tryz.prog 111 #[.string s,.int .i64 a] w (Js s a w):=by
 by_cases h0:a<0
 ·have HV:=Lib.hid (kQ s.data.toList a (by omega))
  go_enter Tryz.func111,Tryz.ntmps111
  go_wp2
  try simp only [Exit.inBlock,Exit.then]
  refine bodyPost_ret (cq rfl _ _ _) rfl ?_
  exact ⟨_,_,_,_,_,_,_,rfl,aq _,HV.out,Below.refl _ _,fun k h=>by cases h⟩
 by_cases h1:(s.size:Int)<a
 ·have HV:=Lib.hid (kQ s.data.toList a (by rw [←Lib.size_eq];omega))
  go_enter Tryz.func111,Tryz.ntmps111
  go_wp2
  try simp only [Exit.inBlock,Exit.then]
  refine bodyPost_ret (cq rfl _ _ _) rfl ?_
  exact ⟨_,_,_,_,_,_,_,rfl,aq _,HV.out,Below.refl _ _,fun k h=>by cases h⟩
 obtain ⟨k,rfl⟩:∃k:Nat,a=k:=⟨a.toNat,by omega⟩
 have hk:k≤s.size:=by omega
 have HV0:=Lib.hid (fun h=>lS s.data.toList k (by rw [←Lib.size_eq];exact hk) h)
 have HV1:=Lib.hid (fun l self n h=>lU s.data.toList k (by rw [←Lib.size_eq];exact hk) l self n h)
 obtain ⟨T,hT⟩:∃T,eh k (.s0 []) (s.data.toList.drop k)=T:=⟨_,rfl⟩
 rw [hT] at HV0 HV1
 have HT:=Lib.hid hT
 clear hT h0 h1 ha
 have d0:decide ((k:Int)<0)=false:=decide_eq_false (by omega)
 have d1:decide (s.size<k)=false:=decide_eq_false (by omega)
 go_enter Tryz.func111,Tryz.ntmps111
 go_wp2
 clear d0 d1
 go_loopw [8,9,10,11,12,13] (fun v8 v9 v10 v11 v12 v13 wr=>∃(i:Nat) (N V:ByteArray) (q:UInt8) (l:List Ln),v10= .string N∧v11= .string V∧v12= .int .u8 (q.toNat:Int)∧v13= .int .i64 (i:Int)∧Below w.heap.size w wr∧i≤s.size∧N.size≤i∧V.size≤i∧wr.ownsRow w.heap.size 150 2 v8 l.length (eU l)∧l.length≤i∧(v9= .int .i64 0∧eh i (.s0 l) (s.data.toList.drop i)=T∨v9= .int .i64 1∧eh i (.s1 l N.data.toList) (s.data.toList.drop i)=T∧l.length+1≤i∨v9= .int .i64 2∧eh i (.s2 l N.data.toList) (s.data.toList.drop i)=T∧l.length+1≤i∨v9= .int .i64 3∧eh i (.s3 l N.data.toList) (s.data.toList.drop i)=T∧l.length+1≤i∨v9= .int .i64 4∧eh i (.s4 l N.data.toList V.data.toList q) (s.data.toList.drop i)=T∧l.length+1≤i∨v9= .int .i64 5∧eh i (.s5 l N.data.toList V.data.toList) (s.data.toList.drop i)=T∧l.length+1≤i)) (fun _ v9 _ _ _ v13 _=>3*(s.size-(ae v13).toNat)+fL (ae v9))
 case atStart=>exact ⟨k,⟨#[]⟩,⟨#[]⟩,0,[],rfl,rfl,rfl,rfl,Below.refl _ _,hk,Nat.zero_le _,Nat.zero_le _,World.ownsRow_nil _ _ _ _,Nat.zero_le _,.inl ⟨rfl,HT.out⟩⟩
 case round=>
  obtain ⟨i,N,V,q,l,rfl,rfl,rfl,rfl,hbw,hi,hN,hV,hown,hl,hst⟩:=hrel
  have hsz:=hbw.size
  have HO:=Lib.hid hown
  clear hown HT
  by_cases hlt:i<s.size
  ·have HSp:=fun w=>Lib.hid (mf ((s[i].toNat:Nat):Int) w)
   have hsp0:cd s[i]=co ((s[i].toNat:Nat):Int):=rfl
   obtain ⟨sp,hsp⟩:∃sp,co ((s[i].toNat:Nat):Int)=sp:=⟨_,rfl⟩
   rw [hsp] at HSp hsp0
   have HSP:=Lib.hid hsp0
   clear hsp hsp0
   rcases hst with ⟨rfl,hT⟩|⟨rfl,hT,hl1⟩|⟨rfl,hT,hl1⟩|⟨rfl,hT,hl1⟩|⟨rfl,hT,hl1⟩|⟨rfl,hT,hl1⟩
   ·cases sp
    focus
     by_cases h62:((s[i].toNat:Nat):Int)=62
    ·have HK:=Lib.hid (AF hlt (AC (aQ _ 62 (by decide) h62)) hT)
     clear hT
     have b62:(((s[i].toNat:Nat):Int)==62)=true:=beq_iff_eq.2 h62
     clear h62
     obtain ⟨ad,cap,rfl,hrows⟩:=gL l HO.out
     have HRO:=Lib.hid hrows
     have HV:=Lib.hid (HV1.out _ _ _ HK.out)
     clear hrows
     go_wp2_with (go_at_call 110;refine (HSp _).out.mono ?_;rintro e w' ⟨rfl,rfl⟩)
     try simp only [Exit.inBlock,Exit.then]
     refine bodyPost_ret (cq rfl _ _ _) rfl ?_
     exact ⟨_,_,_,_,_,_,_,rfl,HRO.out,HV.out,hbw,fun k h=>(HO.out.lt k h).1⟩
    focus
     by_cases h47:((s[i].toNat:Nat):Int)=47
    focus
     by_cases hn:i+1<s.size
    focus
     by_cases hx:((s[i+1].toNat:Nat):Int)=62
    ·have HK:=Lib.hid (AF hlt (wt (aQ _ 47 (by decide) h47) (by rw [nT,dif_pos hn];exact congrArg some (aQ _ 62 (by decide) hx))) hT)
     clear hT
     have b62:(((s[i].toNat:Nat):Int)==62)=false:=beq_eq_false_iff_ne.2 h62
     have b47:(((s[i].toNat:Nat):Int)==47)=true:=beq_iff_eq.2 h47
     have bx:(((s[i+1].toNat:Nat):Int)==62)=true:=beq_iff_eq.2 hx
     clear h62 h47 hx
     obtain ⟨ad,cap,rfl,hrows⟩:=gL l HO.out
     have HRO:=Lib.hid hrows
     have HV:=Lib.hid (HV1.out _ _ _ HK.out)
     clear hrows
     go_wp2_with (go_at_call 110;refine (HSp _).out.mono ?_;rintro e w' ⟨rfl,rfl⟩)
     try simp only [Exit.inBlock,Exit.then]
     refine bodyPost_ret (cq rfl _ _ _) rfl ?_
     exact ⟨_,_,_,_,_,_,_,rfl,HRO.out,HV.out,hbw,fun k h=>(HO.out.lt k h).1⟩
    focus
     have HK:=Lib.hid (eb hlt (lW (aQ _ 47 (by decide) h47) (by rw [nT,dif_pos hn];exact fun e=>ef _ 62 (by decide) hx (Option.some.inj e))) hT)
     clear hT
     have b62:(((s[i].toNat:Nat):Int)==62)=false:=beq_eq_false_iff_ne.2 h62
     have b47:(((s[i].toNat:Nat):Int)==47)=true:=beq_iff_eq.2 h47
     have bx:(((s[i+1].toNat:Nat):Int)==62)=false:=beq_eq_false_iff_ne.2 hx
     clear h62 h47 hx
    rotate_left
    focus
     have HK:=Lib.hid (eb hlt (lW (aQ _ 47 (by decide) h47) (by rw [nT,dif_neg hn];exact fun e=>by cases e)) hT)
     clear hT
     have b62:(((s[i].toNat:Nat):Int)==62)=false:=beq_eq_false_iff_ne.2 h62
     have b47:(((s[i].toNat:Nat):Int)==47)=true:=beq_iff_eq.2 h47
     have bx:decide ((i:Int)+1<(s.size:Int))=false:=decide_eq_false (by omega)
     clear h62 h47 hn
    rotate_left
    ·have HK:=Lib.hid (eb hlt (wu HSP.out (ef _ 62 (by decide) h62) (ef _ 47 (by decide) h47)) hT)
     clear hT
     rw [←ct s i hlt] at HK
     have b62:(((s[i].toNat:Nat):Int)==62)=false:=beq_eq_false_iff_ne.2 h62
     have b47:(((s[i].toNat:Nat):Int)==47)=false:=beq_eq_false_iff_ne.2 h47
     clear h62 h47
     go_wp2_with (go_at_call 110;refine (HSp _).out.mono ?_;rintro e w' ⟨rfl,rfl⟩)
     go_roundw
     case rel=>exact ⟨i+1,s.extract i (i+1),V,q,l,rfl,rfl,rfl,by simp,hbw,by omega,by rw [ByteArray.size_extract];omega,by omega,HO.out,by omega,.inr (.inl ⟨rfl,HK.out,by omega⟩)⟩
     case measure=>simp [ae,fL];try omega
    focus
     have HK:=Lib.hid (eb hlt (sN HSP.out) hT)
     clear hT
    rotate_left
    all_goals
     go_wp2_with (go_at_call 110;refine (HSp _).out.mono ?_;rintro e w' ⟨rfl,rfl⟩)
     go_roundw
     case rel=>exact ⟨i+1,N,V,q,l,rfl,rfl,rfl,by simp,hbw,by omega,by omega,by omega,HO.out,by omega,.inl ⟨rfl,HK.out⟩⟩
     case measure=>simp [ae,fL];try omega
   ·cases sp
    focus
     by_cases h47:((s[i].toNat:Nat):Int)=47
    focus
     have HK:=Lib.hid (go hlt (mD (by unfold o5;rw [HSP.out,aQ _ 47 (by decide) h47];rfl)) hT)
     clear hT
     have b47:(((s[i].toNat:Nat):Int)==47)=true:=beq_iff_eq.2 h47
     clear h47
    rotate_left
    focus
     by_cases h62:((s[i].toNat:Nat):Int)=62
    focus
     have HK:=Lib.hid (go hlt (mD (by unfold o5;rw [HSP.out,aQ _ 62 (by decide) h62];rfl)) hT)
     clear hT
     have b47:(((s[i].toNat:Nat):Int)==47)=false:=beq_eq_false_iff_ne.2 h47
     have b62:(((s[i].toNat:Nat):Int)==62)=true:=beq_iff_eq.2 h62
     clear h47 h62
    rotate_left
    focus
     by_cases h61:((s[i].toNat:Nat):Int)=61
    focus
     have HK:=Lib.hid (go hlt (mD (by unfold o5;rw [HSP.out,aQ _ 61 (by decide) h61];rfl)) hT)
     clear hT
     have b47:(((s[i].toNat:Nat):Int)==47)=false:=beq_eq_false_iff_ne.2 h47
     have b62:(((s[i].toNat:Nat):Int)==62)=false:=beq_eq_false_iff_ne.2 h62
     have b61:(((s[i].toNat:Nat):Int)==61)=true:=beq_iff_eq.2 h61
     clear h47 h62 h61
    rotate_left
    ·have e47:(s[i]==47)=false:=beq_eq_false_iff_ne.2 (ef _ 47 (by decide) h47)
     have e62:(s[i]==62)=false:=beq_eq_false_iff_ne.2 (ef _ 62 (by decide) h62)
     have e61:(s[i]==61)=false:=beq_eq_false_iff_ne.2 (ef _ 61 (by decide) h61)
     have he:o5 s[i]=false:=by unfold o5;rw [HSP.out,e47,e62,e61];rfl
     clear e47 e62 e61
     have HK:=Lib.hid (eb hlt (wv he) hT)
     clear hT
     rw [←us s i hlt N] at HK
     have b47:(((s[i].toNat:Nat):Int)==47)=false:=beq_eq_false_iff_ne.2 h47
     have b62:(((s[i].toNat:Nat):Int)==62)=false:=beq_eq_false_iff_ne.2 h62
     have b61:(((s[i].toNat:Nat):Int)==61)=false:=beq_eq_false_iff_ne.2 h61
     clear h47 h62 h61 he
     have g1:¬9223372036854775807<N.size+(s.extract i (i+1)).size:=by rw [ByteArray.size_extract];omega
     go_wp2_with (go_at_call 110;refine (HSp _).out.mono ?_;rintro e w' ⟨rfl,rfl⟩)
     go_roundw
     case rel=>exact ⟨i+1,N++s.extract i (i+1),V,q,l,rfl,rfl,rfl,by simp,hbw,by omega,by rw [ByteArray.size_append,ByteArray.size_extract];omega,by omega,HO.out,by omega,.inr (.inl ⟨rfl,HK.out,by omega⟩)⟩
     case measure=>simp [ae,fL];try omega
    focus
     have HK:=Lib.hid (go hlt (mD (by unfold o5;rw [HSP.out];rfl)) hT)
     clear hT
    rotate_left
    all_goals
     go_wp2_with (go_at_call 110;refine (HSp _).out.mono ?_;rintro e w' ⟨rfl,rfl⟩)
     go_roundw
     case rel=>exact ⟨i,N,V,q,l,rfl,rfl,rfl,rfl,hbw,by omega,by omega,by omega,HO.out,by omega,.inr (.inr (.inl ⟨rfl,HK.out,by omega⟩))⟩
     case measure=>simp [ae,fL];try omega
   ·cases sp
    ·by_cases h61:((s[i].toNat:Nat):Int)=61
     ·have HK:=Lib.hid (eb hlt (EA (aQ _ 61 (by decide) h61)) hT)
      clear hT
      have b61:(((s[i].toNat:Nat):Int)==61)=true:=beq_iff_eq.2 h61
      clear h61
      go_wp2_with (go_at_call 110;refine (HSp _).out.mono ?_;rintro e w' ⟨rfl,rfl⟩)
      go_roundw
      case rel=>exact ⟨i+1,N,V,q,l,rfl,rfl,rfl,by simp,hbw,by omega,by omega,by omega,HO.out,by omega,.inr (.inr (.inr (.inl ⟨rfl,HK.out,by omega⟩)))⟩
      case measure=>simp [ae,fL];try omega
     ·have HK:=Lib.hid (go hlt (ww HSP.out (ef _ 61 (by decide) h61)) hT)
      clear hT
      have b61:(((s[i].toNat:Nat):Int)==61)=false:=beq_eq_false_iff_ne.2 h61
      clear h61
      go_wp2_with (go_at_call 110;refine (HSp _).out.mono ?_;rintro e w' ⟨rfl,rfl⟩)
      refine (jB w.heap.size _ l N ⟨#[]⟩ _ hsz HO.out (by omega) (by decide) (by omega)).mono ?_
      rintro e w1 ⟨v1,rfl,ho1,b1⟩
      have hadd:=mC l N.data.toList []
      have HO1:=Lib.hid ho1
      have B1:=hbw.trans b1
      clear ho1
      go_wp2
      go_roundw
      case rel=>exact ⟨i,N,V,q,fA l N.data.toList [],rfl,rfl,rfl,rfl,B1,by omega,by omega,by omega,HO1.out,by omega,.inl ⟨rfl,HK.out⟩⟩
      case measure=>simp [ae,fL];try omega
    ·have HK:=Lib.hid (eb hlt (sO HSP.out) hT)
     clear hT
     go_wp2_with (go_at_call 110;refine (HSp _).out.mono ?_;rintro e w' ⟨rfl,rfl⟩)
     go_roundw
     case rel=>exact ⟨i+1,N,V,q,l,rfl,rfl,rfl,by simp,hbw,by omega,by omega,by omega,HO.out,by omega,.inr (.inr (.inl ⟨rfl,HK.out,by omega⟩))⟩
     case measure=>simp [ae,fL];try omega
   ·cases sp
    ·by_cases h34:((s[i].toNat:Nat):Int)=34
     ·have HK:=Lib.hid (eb hlt (nQ (.inl (aQ _ 34 (by decide) h34))) hT)
      clear hT
      have b34:(((s[i].toNat:Nat):Int)==34)=true:=beq_iff_eq.2 h34
      clear h34
      go_wp2_with (go_at_call 110;refine (HSp _).out.mono ?_;rintro e w' ⟨rfl,rfl⟩)
      go_roundw
      case rel=>exact ⟨i+1,N,⟨#[]⟩,s[i],l,rfl,rfl,rfl,by simp,hbw,by omega,by omega,Nat.zero_le _,HO.out,by omega,.inr (.inr (.inr (.inr (.inl ⟨rfl,HK.out,by omega⟩))))⟩
      case measure=>simp [ae,fL];try omega
     ·by_cases h39:((s[i].toNat:Nat):Int)=39
      ·have HK:=Lib.hid (eb hlt (nQ (.inr (aQ _ 39 (by decide) h39))) hT)
       clear hT
       have b34:(((s[i].toNat:Nat):Int)==34)=false:=beq_eq_false_iff_ne.2 h34
       have b39:(((s[i].toNat:Nat):Int)==39)=true:=beq_iff_eq.2 h39
       clear h34 h39
       go_wp2_with (go_at_call 110;refine (HSp _).out.mono ?_;rintro e w' ⟨rfl,rfl⟩)
       go_roundw
       case rel=>exact ⟨i+1,N,⟨#[]⟩,s[i],l,rfl,rfl,rfl,by simp,hbw,by omega,by omega,Nat.zero_le _,HO.out,by omega,.inr (.inr (.inr (.inr (.inl ⟨rfl,HK.out,by omega⟩))))⟩
       case measure=>simp [ae,fL];try omega
      ·by_cases h62:((s[i].toNat:Nat):Int)=62
       ·have HK:=Lib.hid (go hlt (AD (aQ _ 62 (by decide) h62)) hT)
        clear hT
        have b34:(((s[i].toNat:Nat):Int)==34)=false:=beq_eq_false_iff_ne.2 h34
        have b39:(((s[i].toNat:Nat):Int)==39)=false:=beq_eq_false_iff_ne.2 h39
        have b62:(((s[i].toNat:Nat):Int)==62)=true:=beq_iff_eq.2 h62
        clear h34 h39 h62
        go_wp2_with (go_at_call 110;refine (HSp _).out.mono ?_;rintro e w' ⟨rfl,rfl⟩)
        refine (jB w.heap.size _ l N ⟨#[]⟩ _ hsz HO.out (by omega) (by decide) (by omega)).mono ?_
        rintro e w1 ⟨v1,rfl,ho1,b1⟩
        have hadd:=mC l N.data.toList []
        have HO1:=Lib.hid ho1
        have B1:=hbw.trans b1
        clear ho1
        go_wp2
        go_roundw
        case rel=>exact ⟨i,N,⟨#[]⟩,q,fA l N.data.toList [],rfl,rfl,rfl,rfl,B1,by omega,by omega,Nat.zero_le _,HO1.out,by omega,.inl ⟨rfl,HK.out⟩⟩
        case measure=>simp [ae,fL];try omega
       ·have HK:=Lib.hid (go hlt (wz HSP.out (by rintro (e|e);exact (ef _ 34 (by decide) h34) e;exact (ef _ 39 (by decide) h39) e) (ef _ 62 (by decide) h62)) hT)
        clear hT
        have b34:(((s[i].toNat:Nat):Int)==34)=false:=beq_eq_false_iff_ne.2 h34
        have b39:(((s[i].toNat:Nat):Int)==39)=false:=beq_eq_false_iff_ne.2 h39
        have b62:(((s[i].toNat:Nat):Int)==62)=false:=beq_eq_false_iff_ne.2 h62
        clear h34 h39 h62
        go_wp2_with (go_at_call 110;refine (HSp _).out.mono ?_;rintro e w' ⟨rfl,rfl⟩)
        go_roundw
        case rel=>exact ⟨i,N,⟨#[]⟩,q,l,rfl,rfl,rfl,rfl,hbw,by omega,by omega,Nat.zero_le _,HO.out,by omega,.inr (.inr (.inr (.inr (.inr (⟨rfl,HK.out,by omega⟩)))))⟩
        case measure=>simp [ae,fL];try omega
    ·have HK:=Lib.hid (eb hlt (sP HSP.out) hT)
     clear hT
     go_wp2_with (go_at_call 110;refine (HSp _).out.mono ?_;rintro e w' ⟨rfl,rfl⟩)
     go_roundw
     case rel=>exact ⟨i+1,N,⟨#[]⟩,q,l,rfl,rfl,rfl,by simp,hbw,by omega,by omega,Nat.zero_le _,HO.out,by omega,.inr (.inr (.inr (.inl ⟨rfl,HK.out,by omega⟩)))⟩
     case measure=>simp [ae,fL];try omega
   ·clear HSP
    by_cases hq:((s[i].toNat:Nat):Int)=(q.toNat:Int)
    ·have hq2:s[i]=q:=by rw [←UInt8.toNat_inj];omega
     have HK:=Lib.hid (eb hlt (AE hq2) hT)
     clear hT
     have bq:(((s[i].toNat:Nat):Int)==(q.toNat:Int))=true:=beq_iff_eq.2 hq
     clear hq hq2
     go_wp2_with (go_at_call 110;refine (HSp _).out.mono ?_;rintro e w' ⟨rfl,rfl⟩)
     refine (jB w.heap.size _ l N V _ hsz HO.out (by omega) (by omega) (by omega)).mono ?_
     rintro e w1 ⟨v1,rfl,ho1,b1⟩
     have hadd:=mC l N.data.toList V.data.toList
     have HO1:=Lib.hid ho1
     have B1:=hbw.trans b1
     clear ho1
     go_wp2
     go_roundw
     case rel=>exact ⟨i+1,N,V,q,fA l N.data.toList V.data.toList,rfl,rfl,rfl,by simp,B1,by omega,by omega,by omega,HO1.out,by omega,.inl ⟨rfl,HK.out⟩⟩
     case measure=>simp [ae,fL];try omega
    ·have hq2:s[i]≠q:=fun e=>hq (by rw [e])
     have HK:=Lib.hid (eb hlt (wB hq2) hT)
     clear hT
     rw [←us s i hlt V] at HK
     have bq:(((s[i].toNat:Nat):Int)==(q.toNat:Int))=false:=beq_eq_false_iff_ne.2 hq
     clear hq hq2
     have g1:¬9223372036854775807<V.size+(s.extract i (i+1)).size:=by rw [ByteArray.size_extract];omega
     go_wp2_with (go_at_call 110;refine (HSp _).out.mono ?_;rintro e w' ⟨rfl,rfl⟩)
     go_roundw
     case rel=>exact ⟨i+1,N,V++s.extract i (i+1),q,l,rfl,rfl,rfl,by simp,hbw,by omega,by omega,by rw [ByteArray.size_append,ByteArray.size_extract];omega,HO.out,by omega,.inr (.inr (.inr (.inr (.inl ⟨rfl,HK.out,by omega⟩))))⟩
     case measure=>simp [ae,fL];try omega
   ·cases sp
    focus
     by_cases h62:((s[i].toNat:Nat):Int)=62
    focus
     have HK:=Lib.hid (go hlt (uo (by rw [aQ _ 62 (by decide) h62];simp)) hT)
     clear hT
     have b62:(((s[i].toNat:Nat):Int)==62)=true:=beq_iff_eq.2 h62
     clear h62
    rotate_left
    ·have e62:(s[i]==62)=false:=beq_eq_false_iff_ne.2 (ef _ 62 (by decide) h62)
     have HK:=Lib.hid (eb hlt (wC (by rw [HSP.out,e62];rfl)) hT)
     clear hT
     clear e62
     rw [←us s i hlt V] at HK
     have b62:(((s[i].toNat:Nat):Int)==62)=false:=beq_eq_false_iff_ne.2 h62
     clear h62
     have g1:¬9223372036854775807<V.size+(s.extract i (i+1)).size:=by rw [ByteArray.size_extract];omega
     go_wp2_with (go_at_call 110;refine (HSp _).out.mono ?_;rintro e w' ⟨rfl,rfl⟩)
     go_roundw
     case rel=>exact ⟨i+1,N,V++s.extract i (i+1),q,l,rfl,rfl,rfl,by simp,hbw,by omega,by omega,by rw [ByteArray.size_append,ByteArray.size_extract];omega,HO.out,by omega,.inr (.inr (.inr (.inr (.inr (⟨rfl,HK.out,by omega⟩)))))⟩
     case measure=>simp [ae,fL];try omega
    focus
     have HK:=Lib.hid (go hlt (uo (by rw [HSP.out];rfl)) hT)
     clear hT
    rotate_left
    all_goals
     go_wp2_with (go_at_call 110;refine (HSp _).out.mono ?_;rintro e w' ⟨rfl,rfl⟩)
     refine (jB w.heap.size _ l N V _ hsz HO.out (by omega) (by omega) (by omega)).mono ?_
     rintro e w1 ⟨v1,rfl,ho1,b1⟩
     have hadd:=mC l N.data.toList V.data.toList
     have HO1:=Lib.hid ho1
     have B1:=hbw.trans b1
     clear ho1
     go_wp2
     go_roundw
     case rel=>exact ⟨i,N,V,q,fA l N.data.toList V.data.toList,rfl,rfl,rfl,rfl,B1,by omega,by omega,by omega,HO1.out,by omega,.inl ⟨rfl,HK.out⟩⟩
     case measure=>simp [ae,fL];try omega
  ·have hnone:T=none:=by
    rcases hst with ⟨-,hT⟩|⟨-,hT,-⟩|⟨-,hT,-⟩|⟨-,hT,-⟩|⟨-,hT,-⟩|⟨-,hT,-⟩
    all_goals exact Kf hlt hT
   have HV:=Lib.hid (HV0.out hnone)
   rw [←Lib.size_eq] at HV
   have hge:(s.size:Int)≤(i:Int):=by omega
   clear hst hnone hlt
   go_wp2
   try simp only [Exit.inBlock,Exit.then]
   refine bodyPost_ret (cq rfl _ _ _) rfl ?_
   exact ⟨_,_,_,_,_,_,_,rfl,aq _,HV.out,hbw,fun k h=>by cases h⟩
end Go.Proofs.YtpmdcppnlggckaaGreatDoor
namespace Go.Proofs.YtpmdcppnlggckaaGreatDoor
open Go.RowKit Go.Lib
theorem ut (c:UInt8) (q:Int) (h:(c.toNat:Int)=q):co q=cd c:=by rw [←h];rfl
theorem mF (c:UInt8) (q:Int) (n:Nat) (hn:n<256) (h:(c.toNat:Int)=q):(q==(n:Int))=(c==UInt8.ofNat n):=by rw [←h];exact JP c n hn
theorem oH (c:UInt8) (q:Int) (w:World) (hq:(c.toNat:Int)=q):Calls Tryz.prog 205 #[.int .u8 q] w fun e w'=>e= .returned (.bool (dW c))∧w'=w:=by
 have hlt:=c.toNat_lt
 have HS:=fun w=>Lib.hid (vE q w (by omega) (by omega))
 have HV:Hid (dW c=(!co q&& !(q==62))):=Lib.hid (by
  rw [ut c q hq,show (q==62)=(c==62) from mF c q 62 (by decide) hq]
  unfold dW;cases cd c<;>cases (c==62)<;>rfl)
 rw [HV.out]
 clear hq hlt HV
 cases hs:co q
 ·rw [hs] at HS
  cases h62:(q==62)
  all_goals
   go_enter Tryz.func205,Tryz.ntmps205
   go_wp2_with (go_at_call 158;refine (HS _).out.mono ?_;rintro e w' ⟨rfl,rfl⟩)
   go_ret
   exact ⟨az (by simp [bne,h62]),rfl⟩
 ·rw [hs] at HS
  go_enter Tryz.func205,Tryz.ntmps205
  go_wp2_with (go_at_call 158;refine (HS _).out.mono ?_;rintro e w' ⟨rfl,rfl⟩)
  go_ret
  exact ⟨rfl,rfl⟩
theorem yX (c:UInt8) (q:Int) (w:World) (hq:(c.toNat:Int)=q):Calls Tryz.prog 185 #[.int .u8 q] w fun e w'=>e= .returned (.bool (a5 c))∧w'=w:=by
 have HS:=fun w=>Lib.hid (oH c q w hq)
 have HV:Hid (a5 c=(dW c&& !(q==47)&& !(q==61))):=Lib.hid (by
  rw [show (q==47)=(c==47) from mF c q 47 (by decide) hq,show (q==61)=(c==61) from mF c q 61 (by decide) hq]
  unfold a5 o5 dW;cases cd c<;>cases (c==62)<;>cases (c==47)<;>cases (c==61)<;>rfl)
 rw [HV.out]
 clear hq HV
 cases hs:dW c
 ·rw [hs] at HS
  go_enter Tryz.func185,Tryz.ntmps185
  go_wp2_with (go_at_call 205;refine (HS _).out.mono ?_;rintro e w' ⟨rfl,rfl⟩)
  go_ret
  exact ⟨rfl,rfl⟩
 ·rw [hs] at HS
  cases h47:(q==47)
  all_goals
   have h47':(q != 47)= !(q==47):=rfl
   rw [h47] at h47'
   go_enter Tryz.func185,Tryz.ntmps185
   go_wp2_with (go_at_call 205;refine (HS _).out.mono ?_;rintro e w' ⟨rfl,rfl⟩)
   go_ret
   exact ⟨az (by first|rfl|simp [bne]),rfl⟩
theorem sU (c:UInt8) (q:Int) (w:World) (hq:(c.toNat:Int)=q):Calls Tryz.prog 158 #[.int .u8 q] w fun e w'=>e= .returned (.bool (cd c))∧w'=w:=by
 have hlt:=c.toNat_lt
 have:=vE q w (by omega) (by omega)
 rwa [ut c q hq] at this
def fa (p:UInt8→Bool) (l:ab) (i:Nat):Nat:=i+((l.drop i).takeWhile p).length
theorem pu (p:UInt8→Bool) (s:ByteArray) (i:Nat) (h:i<s.size) (hp:p s[i]=true):fa p s.data.toList i=fa p s.data.toList (i+1):=by
 unfold fa
 rw [aj s i h,lX hp,List.length_cons];omega
theorem uu (p:UInt8→Bool) (s:ByteArray) (i:Nat) (h:i<s.size) (hp:p s[i]=false):fa p s.data.toList i=i:=by
 unfold fa
 rw [aj s i h,oG hp];rfl
theorem pv (p:UInt8→Bool) (s:ByteArray):fa p s.data.toList s.size=s.size:=by
 unfold fa
 rw [List.drop_eq_nil_of_le (by rw [←Lib.size_eq];exact Nat.le_refl _)];rfl
theorem uv (p:UInt8→Bool) (s:ByteArray) (i:Nat) (h:i≤s.size):i≤fa p s.data.toList i∧fa p s.data.toList i≤s.size:=by
 have h1:=wD p (s.data.toList.drop i)
 rw [List.length_drop,←Lib.size_eq] at h1
 unfold fa
 omega
theorem wF (s:ByteArray) (a:Int) (i:Nat) (w:World) (hs:s.size≤1099511627776) (ha:(i:Int)=a) (hi:i≤s.size):Calls Tryz.prog 184 #[.string s,.int .i64 a,.func (.func 185) #[] #[]] w fun e w'=>e= .returned (.int .i64 (fa a5 s.data.toList i:Int))∧w'=w:=by
 subst ha
 have HK:=fun c q w h=>Lib.hid (yX c q w h)
 obtain ⟨R,hR⟩:∃R,fa a5 s.data.toList i=R:=⟨_,rfl⟩
 rw [hR]
 have HR:=Lib.hid hR
 clear hR
 go_enter Tryz.func184,Tryz.ntmps184
 go_wp2
 go_loopw [1] (fun v wr=>∃k:Nat,v= .int .i64 (k:Int)∧w=wr∧k≤s.size∧fa a5 s.data.toList k=R) (fun v _=>s.size-(ae v).toNat)
 case atStart=>exact ⟨i,rfl,rfl,hi,HR.out⟩
 case round=>
  obtain ⟨k,rfl,rfl,hk,hR⟩:=hrel
  have HRR:=Lib.hid hR
  clear hR HR
  by_cases hlt:k<s.size
  ·cases hp:a5 s[k]
   ·have hRk:=Lib.hid ((uu a5 s k hlt hp).symm.trans HRR.out)
    have HC:=fun w=>Lib.hid (HK s[k] _ w rfl).out
    rw [hp] at HC
    clear hp HK HRR
    go_wp2_with (go_at_call 185;refine (HC _).out.mono ?_;rintro e w' ⟨rfl,rfl⟩)
    go_ret
    exact ⟨av (by rw [hRk.out]),rfl⟩
   ·have hRk:=Lib.hid ((pu a5 s k hlt hp).symm.trans HRR.out)
    have HC:=fun w=>Lib.hid (HK s[k] _ w rfl).out
    rw [hp] at HC
    clear hp HK HRR
    go_wp2_with (go_at_call 185;refine (HC _).out.mono ?_;rintro e w' ⟨rfl,rfl⟩)
    go_roundw
    case rel=>exact ⟨k+1,by go_num,trivial,by omega,hRk.out⟩
    case measure=>simp [ae];omega
  ·have hke:k=s.size:=by omega
   have hRk:=Lib.hid ((pv a5 s).symm.trans (hke▸HRR.out))
   clear HRR
   subst hke
   go_wp2
   go_ret
   exact ⟨av (by rw [hRk.out]),rfl⟩
theorem uw (s:ByteArray) (a:Int) (i:Nat) (w:World) (hs:s.size≤1099511627776) (ha:(i:Int)=a) (hi:i≤s.size):Calls Tryz.prog 184 #[.string s,.int .i64 a,.func (.func 205) #[] #[]] w fun e w'=>e= .returned (.int .i64 (fa dW s.data.toList i:Int))∧w'=w:=by
 subst ha
 have HK:=fun c q w h=>Lib.hid (oH c q w h)
 obtain ⟨R,hR⟩:∃R,fa dW s.data.toList i=R:=⟨_,rfl⟩
 rw [hR]
 have HR:=Lib.hid hR
 clear hR
 go_enter Tryz.func184,Tryz.ntmps184
 go_wp2
 go_loopw [1] (fun v wr=>∃k:Nat,v= .int .i64 (k:Int)∧w=wr∧k≤s.size∧fa dW s.data.toList k=R) (fun v _=>s.size-(ae v).toNat)
 case atStart=>exact ⟨i,rfl,rfl,hi,HR.out⟩
 case round=>
  obtain ⟨k,rfl,rfl,hk,hR⟩:=hrel
  have HRR:=Lib.hid hR
  clear hR HR
  by_cases hlt:k<s.size
  ·cases hp:dW s[k]
   ·have hRk:=Lib.hid ((uu dW s k hlt hp).symm.trans HRR.out)
    have HC:=fun w=>Lib.hid (HK s[k] _ w rfl).out
    rw [hp] at HC
    clear hp HK HRR
    go_wp2_with (go_at_call 205;refine (HC _).out.mono ?_;rintro e w' ⟨rfl,rfl⟩)
    go_ret
    exact ⟨av (by rw [hRk.out]),rfl⟩
   ·have hRk:=Lib.hid ((pu dW s k hlt hp).symm.trans HRR.out)
    have HC:=fun w=>Lib.hid (HK s[k] _ w rfl).out
    rw [hp] at HC
    clear hp HK HRR
    go_wp2_with (go_at_call 205;refine (HC _).out.mono ?_;rintro e w' ⟨rfl,rfl⟩)
    go_roundw
    case rel=>exact ⟨k+1,by go_num,trivial,by omega,hRk.out⟩
    case measure=>simp [ae];omega
  ·have hke:k=s.size:=by omega
   have hRk:=Lib.hid ((pv dW s).symm.trans (hke▸HRR.out))
   clear HRR
   subst hke
   go_wp2
   go_ret
   exact ⟨av (by rw [hRk.out]),rfl⟩
theorem mG (s:ByteArray) (a:Int) (i:Nat) (w:World) (hs:s.size≤1099511627776) (ha:(i:Int)=a) (hi:i≤s.size):Calls Tryz.prog 184 #[.string s,.int .i64 a,.func (.func 158) #[] #[]] w fun e w'=>e= .returned (.int .i64 (fa cd s.data.toList i:Int))∧w'=w:=by
 subst ha
 have HK:=fun c q w h=>Lib.hid (sU c q w h)
 obtain ⟨R,hR⟩:∃R,fa cd s.data.toList i=R:=⟨_,rfl⟩
 rw [hR]
 have HR:=Lib.hid hR
 clear hR
 go_enter Tryz.func184,Tryz.ntmps184
 go_wp2
 go_loopw [1] (fun v wr=>∃k:Nat,v= .int .i64 (k:Int)∧w=wr∧k≤s.size∧fa cd s.data.toList k=R) (fun v _=>s.size-(ae v).toNat)
 case atStart=>exact ⟨i,rfl,rfl,hi,HR.out⟩
 case round=>
  obtain ⟨k,rfl,rfl,hk,hR⟩:=hrel
  have HRR:=Lib.hid hR
  clear hR HR
  by_cases hlt:k<s.size
  ·cases hp:cd s[k]
   ·have hRk:=Lib.hid ((uu cd s k hlt hp).symm.trans HRR.out)
    have HC:=fun w=>Lib.hid (HK s[k] _ w rfl).out
    rw [hp] at HC
    clear hp HK HRR
    go_wp2_with (go_at_call 158;refine (HC _).out.mono ?_;rintro e w' ⟨rfl,rfl⟩)
    go_ret
    exact ⟨av (by rw [hRk.out]),rfl⟩
   ·have hRk:=Lib.hid ((pu cd s k hlt hp).symm.trans HRR.out)
    have HC:=fun w=>Lib.hid (HK s[k] _ w rfl).out
    rw [hp] at HC
    clear hp HK HRR
    go_wp2_with (go_at_call 158;refine (HC _).out.mono ?_;rintro e w' ⟨rfl,rfl⟩)
    go_roundw
    case rel=>exact ⟨k+1,by go_num,trivial,by omega,hRk.out⟩
    case measure=>simp [ae];omega
  ·have hke:k=s.size:=by omega
   have hRk:=Lib.hid ((pv cd s).symm.trans (hke▸HRR.out))
   clear HRR
   subst hke
   go_wp2
   go_ret
   exact ⟨av (by rw [hRk.out]),rfl⟩
end Go.Proofs.YtpmdcppnlggckaaGreatDoor
namespace Go.Proofs.YtpmdcppnlggckaaGreatDoor
open Go.RowKit Go.Lib
theorem AG (p:UInt8→Bool) (l:ab) (i:Nat):l.drop (fa p l i)=(l.drop i).dropWhile p:=by
 unfold fa;rw [←List.drop_drop,jA]
theorem ED (l:ab) (h:∀c,l.head?=some c→¬(c=34∨c=39)):fW l=(l.takeWhile dW,(l.takeWhile dW).length):=by
 cases l with
 |nil=>rfl
 |cons c t=>rw [iL,if_neg (h c rfl)]
theorem Kg (l:ab) (i:Nat) (h:i<l.length):(l.drop i).take (fa a5 l (i+1)-i)=lu (l.drop i)∧fK (l.drop i)=if (l.drop (fa cd l (fa a5 l (i+1)))).head?=some 61 then ((fW (l.drop (fa cd l (fa cd l (fa a5 l (i+1))+1)))).1,fa cd l (fa cd l (fa a5 l (i+1))+1)+(fW (l.drop (fa cd l (fa cd l (fa a5 l (i+1))+1)))).2-i) else ([],fa cd l (fa a5 l (i+1))-i):=by
 have ht:l.drop i=l[i]::l.drop (i+1):=List.drop_eq_getElem_cons h
 have ea:lu (l.drop i)=l[i]::(l.drop (i+1)).takeWhile a5:=by rw [ht];rfl
 have el:(lu (l.drop i)).length=((l.drop (i+1)).takeWhile a5).length+1:=by rw [ea];rfl
 have e1:fa a5 l (i+1)=i+(lu (l.drop i)).length:=by rw [el];unfold fa;omega
 refine ⟨?_,?_⟩
 ·rw [e1,Nat.add_sub_cancel_left,el,ht,List.take_succ_cons,uq,←ht,ea]
 ·unfold fK
  rw [List.drop_drop,←e1]
  obtain ⟨a,ha⟩:∃a,fa a5 l (i+1)=a:=⟨_,rfl⟩
  rw [ha] at e1⊢
  have e2:(lu (l.drop i)).length+((l.drop a).takeWhile cd).length=fa cd l a-i:=by unfold fa;omega
  have hb1:i+1≤fa cd l a:=by unfold fa;omega
  rw [e2,←AG]
  obtain ⟨b,hb⟩:∃b,fa cd l a=b:=⟨_,rfl⟩
  rw [hb] at hb1⊢
  unfold Kc
  split
  ·rw [List.drop_drop,←AG]
   congr 1
   have e3:b-i+1+((l.drop (b+1)).takeWhile cd).length=fa cd l (b+1)-i:=by unfold fa;omega
   have hb3:i≤fa cd l (b+1):=by unfold fa;omega
   rw [e3];omega
  ·rfl
theorem nU (n:Nat) (hn:n<256) (hl:¬(97≤n∧n≤122)) (hu:¬(65≤n∧n≤90)) (c:UInt8):(UInt8.ofNat n==ca c)=(c==UInt8.ofNat n):=by
 have h1:=cz c
 have h2:(UInt8.ofNat n).toNat=n:=by rw [UInt8.toNat_ofNat'];exact Nat.mod_eq_of_lt hn
 have h3:=c.toNat_lt
 rw [Bool.eq_iff_iff,beq_iff_eq,beq_iff_eq,←UInt8.toNat_inj,←UInt8.toNat_inj,h2]
 by_cases hc:65≤(c.toNat:Int)∧(c.toNat:Int)≤90
 ·rw [show fm (c.toNat:Int)=(c.toNat:Int)+32 from if_pos hc] at h1
  constructor<;>intro h<;>omega
 ·rw [show fm (c.toNat:Int)=(c.toNat:Int) from if_neg hc] at h1
  constructor<;>intro h<;>omega
theorem Kh (s:ByteArray) (i:Nat) (h:i≤s.size):bb s (i:Int) ⟨#[61]⟩=decide ((s.data.toList.drop i).head?=some 61):=by
 unfold bb
 rw [decide_eq_true (show 0≤(i:Int)∧(i:Int)≤(s.size:Int) by omega),Bool.true_and,show ((i:Nat):Int).toNat=i by omega]
 show [61].isPrefixOf _=_
 cases s.data.toList.drop i with
 |nil=>rfl
 |cons c t=>
  rw [aI,List.isPrefixOf_cons_cons,List.isPrefixOf_nil_left,Bool.and_true,show ((61:UInt8)==ca c)=(c==61) from nU 61 (by decide) (by decide) (by decide) c]
  rw [Bool.eq_iff_iff];simp
theorem BU (s:ByteArray) (i:Nat) (h:i≤s.size):bb s (i:Int) ⟨#[47,62]⟩=decide ((s.data.toList.drop i).head?=some 47∧(s.data.toList.drop (i+1)).head?=some 62):=by
 unfold bb
 rw [decide_eq_true (show 0≤(i:Int)∧(i:Int)≤(s.size:Int) by omega),Bool.true_and,show ((i:Nat):Int).toNat=i by omega,←List.drop_drop]
 show [47,62].isPrefixOf _=_
 cases s.data.toList.drop i with
 |nil=>rfl
 |cons c t=>
  cases t with
  |nil=>
   rw [aI,List.isPrefixOf_cons_cons]
   simp [aD]
  |cons d r=>
   rw [aI,List.isPrefixOf_cons_cons,aI,List.isPrefixOf_cons_cons,List.isPrefixOf_nil_left,Bool.and_true,show ((47:UInt8)==ca c)=(c==47) from nU 47 (by decide) (by decide) (by decide) c,show ((62:UInt8)==ca d)=(d==62) from nU 62 (by decide) (by decide) (by decide) d]
   rw [Bool.eq_iff_iff];simp
theorem wG (s : ByteArray) (a : Int) (i : Nat) (w : World) (hs : s.size ≤ 1099511627776) (ha : (i : Int) = a) (hi : i ≤ s.size) :
    Calls Tryz.prog 186 #[.string s, .int .i64 a] w fun e w' => e = .returned (.tuple #[.string ⟨(fW (s.data.toList.drop i)).1.toArray⟩, .int .i64 ((i + (fW (s.data.toList.drop i)).2 : Nat) : Int)]) ∧ ∃ n, w' = w.drewN n := by
  subst ha
  have hlen : (s.data.toList.drop i).length = s.size - i := by rw [List.length_drop, ← Lib.size_eq]
  by_cases hq : ∃ h : i < s.size, s[i] = 34 ∨ s[i] = 39
  · obtain ⟨hlt, hq⟩ := hq
    have hv : fW (s.data.toList.drop i) = ((s.data.toList.drop (i + 1)).takeWhile (· != s[i]), s.size - i - (((s.data.toList.drop (i + 1)).dropWhile (· != s[i])).tail).length) := by
      rw [aj s i hlt, iL, if_pos hq, ← aj s i hlt, hlen]
    obtain ⟨t, ht⟩ : ∃ t, s.data.toList.drop (i + 1) = t := ⟨_, rfl⟩
    have htl : t.length = s.size - (i + 1) := by rw [← ht, List.length_drop, ← Lib.size_eq]
    have hxs : (s.extract (i + 1) s.size).size ≤ 1099511627776 := by rw [ByteArray.size_extract]; omega
    have hx : (s.extract (i + 1) s.size).data.toList = t.takeWhile (· != s[i]) ++ t.dropWhile (· != s[i]) := by
      rw [extract_data, List.take_of_length_le (by rw [List.length_drop, ← Lib.size_eq]; omega), ht, List.takeWhile_append_dropWhile]
    have hno : s[i] ∉ t.takeWhile (· != s[i]) := fun h => by
      have := List.all_eq_true.1 (List.all_takeWhile (l := t) (p := (· != s[i]))) _ h
      simp at this
    have hrest : t.dropWhile (· != s[i]) = [] ∨ ∃ z, t.dropWhile (· != s[i]) = s[i] :: z := by
      cases hd : t.dropWhile (· != s[i]) with
      | nil => exact .inl rfl
      | cons d z =>
        have := pr _ t d z hd
        have : d = s[i] := by simpa using this
        exact .inr ⟨z, by rw [this]⟩
    have HC := fun w => Lib.hid (kL (s.extract (i + 1) s.size) s[i] _ _ w hxs hx hno hrest)
    rw [show (⟨#[s[i]]⟩ : ByteArray) = s.extract i (i + 1) from bu (by rw [ct s i hlt])] at HC
    unfold rD at HC
    obtain ⟨V, hV⟩ : ∃ V : ByteArray, ⟨(t.takeWhile (· != s[i])).toArray⟩ = V := ⟨_, rfl⟩
    obtain ⟨L, hL⟩ : ∃ L : ByteArray, ⟨(t.dropWhile (· != s[i])).tail.toArray⟩ = L := ⟨_, rfl⟩
    obtain ⟨B, hB⟩ : ∃ B : Bool, (!(t.dropWhile (· != s[i])).isEmpty) = B := ⟨_, rfl⟩
    have hLs : L.size = ((t.dropWhile (· != s[i])).tail).length := by rw [← hL, Lib.size_eq, List.toList_toArray]
    have hLle : L.size ≤ s.size - (i + 1) := by
      have h1 := List.length_tail (l := t.dropWhile (· != s[i]))
      have h2 := (List.dropWhile_sublist (l := t) (· != s[i])).length_le
      omega
    rw [hv, ht]
    simp only
    rw [hV, ← hLs]
    rw [hV, hL, hB] at HC
    have HR := Lib.hid (show ((s.size : Int) - (L.size : Int)) = ((i + (s.size - i - L.size) : Nat) : Int) by omega)
    rw [← HR.out]
    have i1 : (i : Int) + 1 ≤ (s.size : Int) := by omega
    have i2 : (i : Int) < (s.size : Int) := by omega
    have i3 : (0 : Int) ≤ (i : Int) + 1 := by omega
    have i4 : IntKind.i64.wrap ((i : Int) + 1) = (i : Int) + 1 := by rw [IntKind.wrap_i64]; omega
    have i5 : ((i : Int) + 1).toNat = i + 1 := by omega
    have i6 : (i : Int) ≤ (i : Int) + 1 := by omega
    have hc : ((s[i].toNat : Int) != 34) = false ∨ ((s[i].toNat : Int) != 34) = true ∧ ((s[i].toNat : Int) != 39) = false := by
      rcases hq with h | h <;> rw [h] <;> decide
    clear hv ht htl hxs hx hno hrest hV hL hB hq HR hlen hLs
    have d1 : ((i : Int) == (s.size : Int)) = false := by simp; omega
    rcases hc with h34 | ⟨h34, h39⟩
    all_goals
      go_enter Tryz.func186, Tryz.ntmps186
      go_wp2
      go_quiet ((go_at_call 132; refine (HC _).out.mono ?_; rintro e w'' ⟨rfl, n, rfl⟩; first | exact ⟨rfl, _, World.drewN_drewN ..⟩ | exact ⟨rfl, _, rfl⟩))
      go_wp2
      go_ret2
      exact ⟨rfl, _, rfl⟩
  · have hv := ED (s.data.toList.drop i) (fun c h => fun hc => hq (by
      have hlt : i < s.size := Nat.lt_of_not_le fun h2 => by
        rw [List.drop_eq_nil_of_le (by rw [← Lib.size_eq]; exact h2)] at h; simp at h
      refine ⟨hlt, ?_⟩
      rw [aj s i hlt, List.head?_cons, Option.some.injEq] at h
      rw [h]; exact hc))
    have HB := fun w => Lib.hid (uw s (i : Int) i w hs rfl hi)
    have hle := uv dW s i hi
    have HV := Lib.hid (show s.extract i (fa dW s.data.toList i) = ⟨((s.data.toList.drop i).takeWhile dW).toArray⟩ from bu (by
      rw [extract_data]; unfold fa; rw [Nat.add_sub_cancel_left, uq]))
    rw [hv]
    simp only
    rw [← HV.out, show i + ((s.data.toList.drop i).takeWhile dW).length = fa dW s.data.toList i from rfl]
    obtain ⟨E, hE⟩ : ∃ E, fa dW s.data.toList i = E := ⟨_, rfl⟩
    rw [hE] at HB hle ⊢
    clear hv HV hE hlen
    by_cases hlt : i < s.size
    · have h34 : ((s[i].toNat : Int) != 34) = true := by
        have : ¬ s[i] = 34 := fun h => hq ⟨hlt, .inl h⟩
        rw [bne_iff_ne]; intro h; exact this (aQ _ 34 (by decide) h)
      have h39 : ((s[i].toNat : Int) != 39) = true := by
        have : ¬ s[i] = 39 := fun h => hq ⟨hlt, .inr h⟩
        rw [bne_iff_ne]; intro h; exact this (aQ _ 39 (by decide) h)
      have d1 : ((i : Int) == (s.size : Int)) = false := by simp; omega
      clear hq
      go_enter Tryz.func186, Tryz.ntmps186
      go_wp2_with (go_at_call 184; refine (HB _).out.mono ?_; rintro e w' ⟨rfl, rfl⟩)
      go_ret2
      exact ⟨rfl, 0, rfl⟩
    · obtain rfl : i = s.size := by omega
      clear hq
      go_enter Tryz.func186, Tryz.ntmps186
      go_wp2_with (go_at_call 184; refine (HB _).out.mono ?_; rintro e w' ⟨rfl, rfl⟩)
      go_ret2
      exact ⟨rfl, 0, rfl⟩
theorem rM (s:ByteArray) (a:Int) (i:Nat) (w:World) (hs:s.size≤1099511627776) (ha:(i:Int)=a) (hi:i<s.size):Calls Tryz.prog 159 #[.string s,.int .i64 a] w fun e w'=>e= .returned (.tuple #[.string ⟨(aL (lu (s.data.toList.drop i))).toArray⟩,.string ⟨(fK (s.data.toList.drop i)).1.toArray⟩,.int .i64 ((i+(fK (s.data.toList.drop i)).2:Nat):Int)])∧Below w.heap.size w w':=by
 subst ha
 obtain ⟨h1,h2⟩:=Kg s.data.toList i (by rw [←Lib.size_eq];exact hi)
 have HB1:=fun w=>Lib.hid (wF s ((i:Int)+1) (i+1) w hs (by omega) (by omega))
 have l1:=uv a5 s (i+1) (by omega)
 obtain ⟨e1,he1⟩:∃e1,fa a5 s.data.toList (i+1)=e1:=⟨_,rfl⟩
 rw [he1] at h1 h2 HB1 l1
 have HB2:=fun w=>Lib.hid (mG s (e1:Int) e1 w hs rfl l1.2)
 have l2:=uv cd s e1 l1.2
 obtain ⟨e2,he2⟩:∃e2,fa cd s.data.toList e1=e2:=⟨_,rfl⟩
 rw [he2] at h2 HB2 l2
 have HG:=fun w=>Lib.hid (cg s (e2:Int) ⟨#[61]⟩ w hs (by decide) (by omega) (by omega))
 rw [Kh s e2 l2.2] at HG
 obtain ⟨X,hX⟩:∃X,s.extract i e1=X:=⟨_,rfl⟩
 have hXl:X.data.toList=lu (s.data.toList.drop i):=by rw [←hX,extract_data,h1]
 have hXs:X.size≤1099511627776:=by rw [←hX,ByteArray.size_extract];omega
 have HL:=fun w=>Lib.hid (Jj X w hXs)
 have HC:=fun w=>Lib.hid (fy (oY X) w (by rw [iy];exact hXs))
 rw [eJ,hXl] at HC
 rw [show ap (aD (lu (s.data.toList.drop i)))=aL (lu (s.data.toList.drop i)) from rfl] at HC
 obtain ⟨N,hN⟩:∃N:ByteArray,⟨(aL (lu (s.data.toList.drop i))).toArray⟩=N:=⟨_,rfl⟩
 rw [hN] at HC⊢
 have HX:=Lib.hid hX
 have HX2:=Lib.hid hX.symm
 clear hXl hN h1 he1 he2 hXs
 by_cases h61:(s.data.toList.drop e2).head?=some 61
 ·rw [if_pos h61] at h2
  rw [decide_eq_true h61] at HG
  have hlt:e2<s.size:=Nat.lt_of_not_le fun h=>by
   rw [List.drop_eq_nil_of_le (by rw [←Lib.size_eq];exact h)] at h61;simp at h61
  have HB3:=fun w=>Lib.hid (mG s ((e2:Int)+1) (e2+1) w hs (by omega) (by omega))
  have l3:=uv cd s (e2+1) (by omega)
  obtain ⟨e3,he3⟩:∃e3,fa cd s.data.toList (e2+1)=e3:=⟨_,rfl⟩
  rw [he3] at h2 HB3 l3
  have HV:=fun w=>Lib.hid (wG s (e3:Int) e3 w hs rfl l3.2)
  rw [h2]
  simp only
  obtain ⟨V,hV⟩:∃V:ByteArray,⟨(fW (s.data.toList.drop e3)).1.toArray⟩=V:=⟨_,rfl⟩
  obtain ⟨M,hM⟩:∃M,e3+(fW (s.data.toList.drop e3)).2=M:=⟨_,rfl⟩
  rw [hV,hM] at HV
  have hMi:i+(M-i)=M:=by omega
  rw [hV,hM,hMi]
  clear h2 hV hM hMi he3 h61 hX
  go_enter Tryz.func159,Tryz.ntmps159
  go_wp2_with (fail)
  refine (HB1 _).out.mono ?_
  rintro e w1 ⟨rfl,rfl⟩
  go_wp2_with (fail)
  rw [HX.out]
  refine (HL _).out.mono ?_
  rintro e w2 ⟨rfl,b2⟩
  go_wp2_with (fail)
  refine (HC _).out.mono ?_
  rintro e w3 ⟨rfl,b3⟩
  have c3:=b2.trans (b3.mono b2.size)
  go_wp2_with (fail)
  refine (HB2 _).out.mono ?_
  rintro e w4 ⟨rfl,rfl⟩
  go_wp2_with (fail)
  refine (HG _).out.mono ?_
  rintro e w5 ⟨rfl,n5,rfl⟩
  go_wp2_with (fail)
  refine (HB3 _).out.mono ?_
  rintro e w6 ⟨rfl,rfl⟩
  go_wp2_with (fail)
  refine (HV _).out.mono ?_
  rintro e w7 ⟨rfl,n7,rfl⟩
  go_wp2
  go_ret3
  exact ⟨rfl,c3.trans (ai _ _ _)⟩
 ·rw [if_neg h61] at h2
  rw [decide_eq_false h61] at HG
  rw [h2]
  simp only
  have hMi:i+(e2-i)=e2:=by omega
  rw [hMi]
  clear h2 hMi h61 hX
  go_enter Tryz.func159,Tryz.ntmps159
  go_wp2_with (fail)
  refine (HB1 _).out.mono ?_
  rintro e w1 ⟨rfl,rfl⟩
  go_wp2_with (fail)
  rw [HX.out]
  refine (HL _).out.mono ?_
  rintro e w2 ⟨rfl,b2⟩
  go_wp2_with (fail)
  refine (HC _).out.mono ?_
  rintro e w3 ⟨rfl,b3⟩
  have c3:=b2.trans (b3.mono b2.size)
  go_wp2_with (fail)
  refine (HB2 _).out.mono ?_
  rintro e w4 ⟨rfl,rfl⟩
  go_wp2_with (fail)
  refine (HG _).out.mono ?_
  rintro e w5 ⟨rfl,n5,rfl⟩
  go_wp2
  go_ret3
  exact ⟨rfl,c3.trans (ai _ _ _)⟩
end Go.Proofs.YtpmdcppnlggckaaGreatDoor
namespace Go.Proofs.YtpmdcppnlggckaaGreatDoor
open Go.RowKit Go.Lib Go.WideMaps Go.Maps
theorem rN {H:Type} {P:Program} {e:TypeId} (he:P.underlying e=some .bool) {v:Value} {z:DataW H × List MemPlace} (h:plainElem P e v=some z):∃b,v= .bool b∧z=(.lit (.bool b),[]):=by
 unfold plainElem at h
 rw [he] at h
 cases v<;>simp at h
 exact ⟨_,rfl,h.symm⟩
def ge (w:World) (P:Program) (k e:TypeId) (b n:Nat) (f:List UInt8→Bool):Prop:=
 ∃D:DataW Unit,w.ownsMap P k (plainElem P e) b n D∧IsMap D∧∀t:List UInt8,D.atKey (.string t) (.lit (.bool false))= .lit (.bool (f t))
theorem ge.kept {w w':World} {P:Program} {k e:TypeId} {b n:Nat} {f:List UInt8→Bool} {row:Option Nat} (h:ge w P k e b n f) (hg:w.grownBy w' row) (hne:some b≠row):ge w' P k e b n f:=by
 obtain ⟨D,h1,h2,h3⟩:=h
 exact ⟨D,h1.kept hg hne,h2,h3⟩
theorem ge.below {w w':World} {P:Program} {k e:TypeId} {b n:Nat} {f:List UInt8→Bool} (h:ge w P k e b n f) (hb:Below w.heap.size w w'):ge w' P k e b n f:=
 h.kept (row:=none) ⟨hb.os,hb.tape,hb.output,hb.size,fun k hk _=>hb.block k hk⟩ (by simp)
theorem ge.alloc {w:World} {P:Program} {k e:TypeId} {b n:Nat} {f:List UInt8→Bool} (h:ge w P k e b n f) (o:Obj):ge (w.alloc o) P k e b n f:=
 h.kept (World.grownBy_alloc w o none) (by simp)
theorem ge.lt {w:World} {P:Program} {k e:TypeId} {b n:Nat} {f:List UInt8→Bool} (h:ge w P k e b n f):b<w.heap.size:=by
 obtain ⟨D,h1,-⟩:=h
 exact h1.lt
theorem yY (w:World) (P:Program) (k e:TypeId):ge (w.alloc (.map #[] 0)) P k e w.heap.size 0 (fun _=>false):=
 ⟨.map [],World.ownsMap_made _ _ _ _,isMap_empty,fun _=>rfl⟩
theorem iM {P:Program} (w:World) {ops:Array Oper} {rest:List Oper} {o:Oper} {a:Act} {Q:Exit→Act→World→Prop} (hg:o.guard=none) (m x:Operand) (t:TypeId) (hop:o.op=Op.lookup t m x false) (k e:TypeId) (hk:P.underlying k=some .string) (ht:P.underlying t=some (.map k e)) (he:P.underlying e=some .bool) (hz:(zeroValue e).run P w= .ok (.bool false) w) (b n:Nat) (f:List UInt8→Bool) (hm:a.eval m= .map (some b)) (hown:ge w P k e b n f) (s:ByteArray) (hs:s.size≤maxLen) (hx:a.eval x= .string s) (hK:wpList P ops Q rest (a.put o.dst (.bool (f s.data.toList))) w):wpList P ops Q (o::rest) a w:=by
 refine wpList_plain hg fun K' hK'=>?_
 obtain ⟨D,h1,h2,h3⟩:=hown
 obtain ⟨v,ps,hrun,hv⟩:=h1.lookup (string_keyed hk) ht hz (plainElem_bool he false) (keyOf_string_mk hk hs)
 obtain ⟨c,rfl,hc⟩:=rN he hv
 rw [h3] at hc
 simp only [Prod.mk.injEq,DataW.lit.injEq,Lit.bool.injEq] at hc
 rw [←hc.1] at hrun
 unfold Oper.wp
 simp [execOp,hop,hm,hx,hrun,Result.andThen]
 exact hK' _ _ hK
theorem mI {P:Program} (w:World) {ops:Array Oper} {rest:List Oper} {o:Oper} {a:Act} {Q:Exit→Act→World→Prop} (hg:o.guard=none) (m x v:Operand) (t:TypeId) (hop:o.op=Op.mapUpdate t m x v) (k e:TypeId) (hk:P.underlying k=some .string) (ht:P.underlying t=some (.map k e)) (he:P.underlying e=some .bool) (b n:Nat) (f:List UInt8→Bool) (hm:a.eval m= .map (some b)) (hown:ge w P k e b n f) (hn:n<maxLen) (s:ByteArray) (hs:s.size≤maxLen) (c:Bool) (key val:Value) (hx:a.eval x=key) (hv:a.eval v=val) (hkey:key= .string s) (hval:val= .bool c) (hK:∀w',ge w' P k e b (n+1) (fun u=>if u=s.data.toList then c else f u)→w.grownBy w' (some b)→wpList P ops Q rest (a.put o.dst undef) w'):wpList P ops Q (o::rest) a w:=by
 subst hkey;subst hval
 obtain ⟨D,h1,h2,h3⟩:=hown
 refine wpList_mapUpdate_own w hg m x v t hop k e (string_keyed hk) ht (plainElem P e) b n D hm h1 hn (.string s) (.bool c) _ hx hv (keyOf_string_mk hk hs) (.lit (.bool c)) [] (plainElem_bool he c) ?_
 intro w' h1' hgr
 refine hK w' ⟨_,h1',h2.put _ _,fun u=>?_⟩ hgr
 show _=DataW.lit (Lit.bool (if u=s.data.toList then c else f u))
 by_cases hu:u=s.data.toList
 ·rw [if_pos hu,hu]
  exact atKey_put_same h2 (show WideAt.IsKeyLit (.string s.data.toList) from trivial) _ _
 ·rw [if_neg hu,atKey_put_other (fun e=>hu (by injection e)) _ _,h3]
end Go.Proofs.YtpmdcppnlggckaaGreatDoor
namespace Go.Proofs.YtpmdcppnlggckaaGreatDoor
open Go.RowKit Go.Lib Go.Maps
theorem wH (w:World):(zeroValue 4).run Tryz.prog w= .ok (.bool false) w:=by kernel_rfl
def LJ (s:ByteArray) (a:Int) (lv:Value) (B:Nat) (u:Nat→Value):Act:=
 {tmps:=#[.string s,.int .i64 a,u 2,u 3,lv,u 5,u 6,u 7,.map (some B),u 9,u 10,u 11,u 12,u 13,u 14,u 15,u 16,u 17,u 18,u 19,u 20,u 21,u 22,u 23,u 24,u 25,u 26,u 27,u 28,u 29,u 30,u 31,u 32,u 33,u 34,u 35,u 36,u 37,u 38,u 39,u 40,u 41,u 42,u 43,u 44,u 45,u 46,u 47,u 48,u 49,u 50,u 51,u 52,u 53,u 54,u 55,u 56,u 57,u 58,u 59,u 60,u 61,u 62,u 63,u 64,u 65,u 66,u 67,u 68,u 69,u 70,u 71,u 72,u 73,u 74,u 75,u 76,u 77],defers:=[]}
def nV (l:List Ln):ab→Bool:=fun k=>l.any (fun r=>r.1==k)
theorem BV (l:List Ln) (n v:ab):(fun u=>decide (u=n)||nV l u)=nV (l++[(n,v)]):=by
 funext u
 unfold nV
 rw [List.any_append,List.any_cons,List.any_nil,Bool.or_false]
 by_cases h:u=n
 ·rw [decide_eq_true h,h,beq_self_eq_true n,Bool.or_true,Bool.true_or]
 ·rw [decide_eq_false h,Bool.false_or,show (n==u)=false by rw [beq_eq_false_iff_ne];exact fun e=>h e.symm,Bool.or_false]
theorem BX (l:ab) (i:Nat) (h:i<l.length) (hb:EC l[i]=true) (ls:List Ln) (T:Option lr) (hT:eh i (.s0 ls) (l.drop i)=T):eh (i+(fK (l.drop i)).2) (.s0 (fA ls (lu (l.drop i)) (fK (l.drop i)).1)) (l.drop (i+(fK (l.drop i)).2))=T:=by
 rw [←hT]
 unfold eh
 have ht:l.drop i=l[i]::l.drop (i+1):=List.drop_eq_getElem_cons h
 rw [←List.drop_drop]
 rw [ht]
 rw [If ls l[i] (l.drop (i+1)) hb,ey,Nat.add_comm]
theorem wI (s:ByteArray) (a:Int) (w:World) (hs:s.size≤1048576) (ha: -9223372036854775808≤a∧a≤9223372036854775807) (h:cc w):Calls Tryz.prog 125 #[.string s,.int .i64 a] w (Js s a w):=by
 have HT:=Lib.hid h
 clear h
 by_cases h0:a<0
 focus
  have HV:=Lib.hid (kQ s.data.toList a (by omega))
 rotate_left
 focus
  by_cases h1:(s.size:Int)<a
 focus
  have HV:=Lib.hid (kQ s.data.toList a (by rw [←Lib.size_eq];omega))
 rotate_left
 ·obtain ⟨k,rfl⟩:∃k:Nat,a=k:=⟨a.toNat,by omega⟩
  have hk:k≤s.size:=by omega
  have HV0:=Lib.hid (fun h=>lS s.data.toList k (by rw [←Lib.size_eq];exact hk) h)
  have HV1:=Lib.hid (fun l self n h=>lU s.data.toList k (by rw [←Lib.size_eq];exact hk) l self n h)
  obtain ⟨T,hT⟩:∃T,eh k (.s0 []) (s.data.toList.drop k)=T:=⟨_,rfl⟩
  rw [hT] at HV0 HV1
  have HK:=Lib.hid hT
  clear hT h0 h1 ha
  obtain ⟨i0,hi0,hz0,hz1,hz2⟩:=info_parts sR
  have d0:decide ((k:Int)<0)=false:=decide_eq_false (by omega)
  have d1:decide (s.size<k)=false:=decide_eq_false (by omega)
  have hmm:=@run_makeMap Tryz.prog
  have hs2:s.size≤1099511627776:=by omega
  go_enter Tryz.func125,Tryz.ntmps125
  go_wp2
  refine cB 0 (fun a' wr=>∃(i n:Nat) (l:List Ln) (lv:Value),a'=LJ s (i:Int) lv w.heap.size (fun n=>a'.tmps.getD n undef)∧wr.ownsRow (w.heap.size+1) 150 2 lv l.length (eU l)∧ge wr Tryz.prog 9 4 w.heap.size n (nV l)∧Below w.heap.size w wr∧i≤s.size∧n≤i∧l.length≤i∧eh i (.s0 l) (s.data.toList.drop i)=T) (fun a' _=>s.size-(ae (a'.tmps.getD 1 undef)).toNat) rfl ?_ ?_
  ·rintro a' wr ⟨i,n,l,lv,hfr,hown,hmap,hbw,hle,hn,hl,hT⟩
   obtain ⟨u,rfl⟩:∃u,a'=LJ s (i:Int) lv w.heap.size u:=⟨_,hfr⟩
   clear hfr
   unfold LJ
   have HO:=Lib.hid hown
   have HM:=Lib.hid hmap
   have HB:=Lib.hid hbw
   have HX:=Lib.hid hT
   clear hown hmap hbw hT HK
   by_cases hlt:i<s.size
   ·have HG:=fun w=>Lib.hid (cg s (i:Int) ⟨#[47,62]⟩ w hs2 (by decide) (by omega) (by omega))
    rw [BU s i hle] at HG
    have db:((i:Int)==(s.size:Int))=false:=by simp;omega
    have hx:=HX.out
    rw [aj s i hlt] at hx
    have hb1:=s[i].toNat_lt
    have HSp:=fun w=>Lib.hid (sU s[i] _ w rfl)
    by_cases c62:s[i]=62
    ·have HN:=Lib.hid (HV1.out l false (i+1) (nP (AC c62) hx))
     rw [show ((i+1:Nat):Int)=(i:Int)+1 by omega] at HN
     have h62:((s[i].toNat:Int)==62)=true:=by rw [c62];rfl
     obtain ⟨ad,cap,rfl,hr⟩:=gL l HO.out
     have HR:=Lib.hid hr
     clear hr hx c62 HG HSp HM HX hb1
     go_wp2
     simp only [Exit.jump]
     try simp only [Exit.inBlock,Exit.then]
     refine bodyPost_ret (cq rfl _ _ _) rfl ?_
     exact ⟨_,_,_,_,_,_,_,rfl,HR.out,HN.out,HB.out,fun k h=>Nat.le_of_succ_le (HO.out.lt k h).1⟩
    have h62:((s[i].toNat:Int)==62)=false:=by
     rw [beq_eq_false_iff_ne];exact fun h=>c62 (aQ _ 62 (by decide) h)
    by_cases hcl:(s.data.toList.drop i).head?=some 47∧(s.data.toList.drop (i+1)).head?=some 62
    ·rw [decide_eq_true hcl] at HG
     have c47:s[i]=47:=by have:=hcl.1;rw [aj s i hlt,List.head?_cons,Option.some.injEq] at this;exact this
     have hlt2:i+1<s.size:=Nat.lt_of_not_le fun h=>by
      have:=hcl.2;rw [List.drop_eq_nil_of_le (by rw [←Lib.size_eq];exact h)] at this;simp at this
     have HN:=Lib.hid (HV1.out l true (i+2) (nP (wt c47 hcl.2) hx))
     rw [show ((i+2:Nat):Int)=(i:Int)+2 by omega] at HN
     obtain ⟨ad,cap,rfl,hr⟩:=gL l HO.out
     have HR:=Lib.hid hr
     clear hr hx c62 c47 hcl HSp HM HX hb1
     go_wp2_with (fail)
     refine (HG _).out.mono ?_
     rintro e w1 ⟨rfl,n1,rfl⟩
     go_wp2
     simp only [Exit.jump]
     try simp only [Exit.inBlock,Exit.then]
     refine bodyPost_ret (cq rfl _ _ _) rfl ?_
     exact ⟨_,_,_,_,_,_,_,rfl,HR.out.below (ai _ _ _) (Nat.le_refl _),HN.out,HB.out.trans (ai _ _ _),fun k h=>Nat.le_of_succ_le (HO.out.lt k h).1⟩
    rw [decide_eq_false hcl] at HG
    by_cases c47:s[i]=47
    ·have hn62:(s.data.toList.drop (i+1)).head?≠some 62:=fun h=>hcl ⟨by rw [aj s i hlt,List.head?_cons,c47],h⟩
     have HN:=Lib.hid (nO (lW c47 hn62) hx)
     have h47:((s[i].toNat:Int)==47)=true:=by rw [c47];rfl
     clear hx c62 c47 hcl hn62 HSp HX hb1
     go_wp2_with (fail)
     refine (HG _).out.mono ?_
     rintro e w1 ⟨rfl,n1,rfl⟩
     go_wp2
     go_step3
     refine ⟨rfl,⟨i+1,n,l,lv,rfl,fB HO.out (ai _ _ _),HM.out.below (ai _ _ _),HB.out.trans (ai _ _ _),hlt,by omega,by omega,HN.out⟩,?_⟩
     simp [ae];omega
    have h47:((s[i].toNat:Int)==47)=false:=by
     rw [beq_eq_false_iff_ne];exact fun h=>c47 (aQ _ 47 (by decide) h)
    by_cases hsp:cd s[i]=true
    ·have HN:=Lib.hid (nO (sN hsp) hx)
     rw [hsp] at HSp
     clear hx c62 c47 hcl hsp HX hb1
     go_wp2_with (fail)
     refine (HG _).out.mono ?_
     rintro e w1 ⟨rfl,n1,rfl⟩
     go_wp2_with (fail)
     refine (HSp _).out.mono ?_
     rintro e w2 ⟨rfl,rfl⟩
     go_wp2
     go_step3
     refine ⟨rfl,⟨i+1,n,l,lv,rfl,fB HO.out (ai _ _ _),HM.out.below (ai _ _ _),HB.out.trans (ai _ _ _),hlt,by omega,by omega,HN.out⟩,?_⟩
     simp [ae];omega
    have hsf:cd s[i]=false:=by simpa using hsp
    have hbeg:EC s[i]=true:=by unfold EC;rw [hsf];simp [c62,c47]
    have HA:=fun w=>Lib.hid (rM s (i:Int) i w hs2 rfl hlt)
    have hstep:=BX s.data.toList i (by rw [←Lib.size_eq];exact hlt) hbeg l T HX.out
    have hbd:=wE s[i] (s.data.toList.drop (i+1))
    rw [←aj s i hlt,List.length_drop,←Lib.size_eq] at hbd
    have hnm:=Kd (s.data.toList.drop i)
    rw [List.length_drop,←Lib.size_eq] at hnm
    rw [hsf] at HSp
    have hNc:=(dR (aD (lu (s.data.toList.drop i)))).2
    rw [dN] at hNc
    obtain ⟨N,hN⟩:∃N:ByteArray,⟨(aL (lu (s.data.toList.drop i))).toArray⟩=N:=⟨_,rfl⟩
    obtain ⟨V,hV⟩:∃V:ByteArray,⟨(fK (s.data.toList.drop i)).1.toArray⟩=V:=⟨_,rfl⟩
    obtain ⟨m,hm⟩:∃m,i+(fK (s.data.toList.drop i)).2=m:=⟨_,rfl⟩
    have hNl:N.data.toList=aL (lu (s.data.toList.drop i)):=by rw [←hN,List.toList_toArray]
    have hVl:V.data.toList=(fK (s.data.toList.drop i)).1:=by rw [←hV,List.toList_toArray]
    have hNs:N.size≤3145728:=by rw [Lib.size_eq,hNl];unfold aL;omega
    have hVs:V.size≤1048576:=by rw [Lib.size_eq,hVl];omega
    rw [hN,hV,hm] at HA
    rw [hm] at hstep
    have hm1:i<m:=by omega
    have hm2:m≤s.size:=by omega
    have hNm:N.size≤maxLen:=by unfold maxLen;omega
    have HNV:=Lib.hid (show (Value.string N)=fo (aL (lu (s.data.toList.drop i))) by rw [←hN];rfl)
    have HNL:=Lib.hid hNl
    cases hF:nV l N.data.toList
    ·have hadd:fA l (lu (s.data.toList.drop i)) (fK (s.data.toList.drop i)).1=l++[(aL (lu (s.data.toList.drop i)),oF (fK (s.data.toList.drop i)).1)]:=by
      unfold fA
      rw [if_neg (by rw [←hNl];unfold nV at hF;rw [hF];exact Bool.false_ne_true)]
     rw [hadd] at hstep
     have HST:=Lib.hid hstep
     have HD:=fun w h1 h2=>Lib.hid (lR V true w (by omega) h1 h2)
     have hds:(⟨(ej true V.data.toList).toArray⟩:ByteArray).size≤1099511627776:=by
      rw [Lib.size_eq,List.toList_toArray]
      have:=ki true V.data.toList.length V.data.toList (Nat.le_refl _)
      rw [←Lib.size_eq] at this
      omega
     have HC:=fun w=>Lib.hid (fy ⟨(ej true V.data.toList).toArray⟩ w hds)
     rw [List.toList_toArray,show ap (ej true V.data.toList)=oF (fK (s.data.toList.drop i)).1 by rw [hVl];rfl] at HC
     obtain ⟨D,hD⟩:∃D:ByteArray,⟨(ej true V.data.toList).toArray⟩=D:=⟨_,rfl⟩
     obtain ⟨W,hW⟩:∃W:ByteArray,⟨(oF (fK (s.data.toList.drop i)).1).toArray⟩=W:=⟨_,rfl⟩
     rw [hD] at HD HC
     rw [hW] at HC
     have HWV:=Lib.hid (show (Value.string W)=fo (oF (fK (s.data.toList.drop i)).1) by rw [←hW];rfl)
     have hne:lv.ownBlock=none∨lv.ownBlock≠some w.heap.size:= .inr fun e=>by
      have:=(HO.out.lt _ e).1;omega
     have hne2:some w.heap.size≠lv.ownBlock:=fun e=>by
      have:=(HO.out.lt _ e.symm).1;omega
     have HNE:=Lib.hid hne
     have HNE2:=Lib.hid hne2
     have hB1:=HM.out.lt
     clear hx c62 c47 hcl hsp HX hb1 hsf hbeg hstep hbd hnm hNc hN hV hm hNl hVl hadd hds hD hW hne hne2
     go_wp2_with (fail)
     refine (HG _).out.mono ?_
     rintro e w1 ⟨rfl,n1,rfl⟩
     go_wp2_with (fail)
     refine (HSp _).out.mono ?_
     rintro e w2 ⟨rfl,rfl⟩
     go_wp2_with (fail)
     refine (HA _).out.mono ?_
     rintro e w3 ⟨rfl,b3⟩
     have C3:=Lib.hid ((ai wr.heap.size wr n1).trans b3)
     clear b3
     have hs3:=C3.out.size
     go_wp2_with (first|(at_lookup;refine iM _ rfl _ _ _ rfl 9 4 Tryz.underlying9 Tryz.underlying146 Tryz.underlying4 (wH _) w.heap.size n _ rfl (HM.out.below C3.out) N hNm rfl ?_)|(at_mapUpdate;refine mI _ rfl _ _ _ _ rfl 9 4 Tryz.underlying9 Tryz.underlying146 Tryz.underlying4 w.heap.size n _ rfl (HM.out.below C3.out) (by unfold maxLen;omega) N hNm true _ _ rfl rfl rfl rfl ?_))
     intro w4 hm4 hg4
     rw [HNL.out,BV l _ (oF (fK (s.data.toList.drop i)).1)] at hm4
     have HM4:=Lib.hid hm4
     have HO4:=Lib.hid ((fB HO.out C3.out).kept hg4 HNE.out)
     have B4:=Lib.hid ((HB.out.trans (C3.out.mono HB.out.size)).grown hg4 (by have:=HB.out.size;omega) (fun k hk=>by cases hk;exact Nat.le_refl _))
     have hs4:=hg4.size
     clear hm4 hg4
     go_wp2_with (fail)
     refine (HD _ (HT.out.below B4.out).tab (HT.out.below B4.out).err).out.mono ?_
     rintro e w5 ⟨rfl,b5⟩
     have hs5:=b5.size
     go_wp2_with (fail)
     refine (HC _).out.mono ?_
     rintro e w6 ⟨rfl,b6⟩
     have hs6:=b6.size
     have B6:=Lib.hid (b5.trans (b6.mono b5.size))
     have HM6:=Lib.hid (HM4.out.below B6.out)
     have HO6:=Lib.hid (fB HO4.out B6.out)
     have HB6:=Lib.hid (B4.out.trans (B6.out.mono B4.out.size))
     clear b5 b6
     go_wp2_with (at_builtin;refine wpList_append_own _ rfl _ _ 52 rfl (w.heap.size+1) 150 i0 _ 2 32 Tryz.underlying52 hi0 hz0 hz1 hz2 rfl (by decide) _ l.length (eU l) rfl (HO6.out.alloc _) ⟨w6.heap.size,0,none⟩ 1 1 [.string N,.string W] rfl rfl ?c1 ?c2 ?c3 ?c4 ?c5 ?_)
     case c1=>exact As _ _ _ _
     case c2=>intro u hu;simp at hu;rcases hu with rfl|rfl<;>rfl
     case c3=>simp [maxLen];omega
     case c4=>omega
     case c5=>simp;omega
     intro v1 w7 hown7 hgr7 _
     have B7:=Lib.hid ((HB6.out.alloc HB6.out.size _).grown hgr7 (by simp;omega) (fun k hk=>by have:=(HO.out.lt k hk).1;omega))
     have HM7:=Lib.hid ((HM6.out.alloc _).kept hgr7 HNE2.out)
     rw [HNV.out,HWV.out,p6] at hown7
     have HO7:=Lib.hid hown7
     clear hown7 hgr7
     go_wp2
     go_step3
     refine ⟨rfl,⟨m,n+1,_,v1,rfl,by rw [List.length_append,List.length_singleton];exact HO7.out,HM7.out,B7.out,hm2,by omega,by rw [List.length_append,List.length_singleton];omega,HST.out⟩,?_⟩
     simp [ae];omega
    ·have hadd:fA l (lu (s.data.toList.drop i)) (fK (s.data.toList.drop i)).1=l:=by
      unfold fA
      rw [if_pos (by rw [←hNl];exact hF)]
     rw [hadd] at hstep
     have HST:=Lib.hid hstep
     clear hx c62 c47 hcl hsp HX hb1 hsf hbeg hstep hbd hnm hNc hN hV hm hNl hVl hadd
     go_wp2_with (fail)
     refine (HG _).out.mono ?_
     rintro e w1 ⟨rfl,n1,rfl⟩
     go_wp2_with (fail)
     refine (HSp _).out.mono ?_
     rintro e w2 ⟨rfl,rfl⟩
     go_wp2_with (fail)
     refine (HA _).out.mono ?_
     rintro e w3 ⟨rfl,b3⟩
     have C3:=Lib.hid ((ai wr.heap.size wr n1).trans b3)
     clear b3
     go_wp2_with (at_lookup;refine iM _ rfl _ _ _ rfl 9 4 Tryz.underlying9 Tryz.underlying146 Tryz.underlying4 (wH _) w.heap.size n _ rfl (HM.out.below C3.out) N hNm rfl ?_)
     go_wp2
     go_step3
     refine ⟨rfl,⟨m,n,l,lv,rfl,fB HO.out C3.out,HM.out.below C3.out,HB.out.trans (C3.out.mono HB.out.size),hm2,by omega,by omega,HST.out⟩,?_⟩
     simp [ae];omega
   ·obtain rfl:i=s.size:=by omega
    have HN:Hid (T=none):=Lib.hid (by
     have:=HX.out
     rw [List.drop_eq_nil_of_le (by rw [←Lib.size_eq];exact Nat.le_refl _)] at this
     exact ws this)
    go_wp2
    simp only [Exit.jump]
    try simp only [Exit.inBlock,Exit.then]
    refine bodyPost_ret (cq rfl _ _ _) rfl ?_
    exact ⟨_,_,_,_,_,_,_,rfl,aq _,by rw [HV0.out HN.out,Lib.size_eq],HB.out,fun k h=>by cases h⟩
  ·intro hpass
   go_wp2
   go_step3
   rename_i K hK
   refine hK _ _ (hpass _ _ ?_)
   exact ⟨k,0,[],.slice none 0 0,rfl,World.ownsRow_nil _ _ _ _,yY _ _ _ _,(Below.refl _ w).alloc (Nat.le_refl _) _,hk,Nat.zero_le _,Nat.zero_le _,HK.out⟩
 all_goals
  go_enter Tryz.func125,Tryz.ntmps125
  go_wp2
  refine cB 0 (fun _ _=>False) (fun _ _=>0) rfl (fun _ _ h=>h.elim) ?_
  intro _
  go_wp2
  simp only [Exit.jump]
  try simp only [Exit.inBlock,Exit.then]
  refine bodyPost_ret (cq rfl _ _ _) rfl ?_
  exact ⟨_,_,_,_,_,_,_,rfl,aq _,HV.out,Below.refl _ _,fun k h=>by cases h⟩
end Go.Proofs.YtpmdcppnlggckaaGreatDoor
namespace Go.Proofs.YtpmdcppnlggckaaGreatDoor
open Go.RowKit Go.Lib
theorem mJ {l0:List Ln} {c:UInt8} {t:ab} {l:List Ln} {self:Bool} {n:Nat} (h:BS l0 c t= .done l self n):(self=false∧n=1∧c=62)∨(self=true∧n=2∧c=47∧t.head?=some 62):=by
 unfold BS at h
 by_cases hs:cd c=true
 ·rw [if_pos hs] at h;cases h
 ·rw [if_neg hs] at h
  by_cases h62:c=62
  ·rw [if_pos h62] at h;cases h;exact .inl ⟨rfl,rfl,h62⟩
  ·rw [if_neg h62] at h
   by_cases h47:c=47
   ·rw [if_pos h47] at h
    by_cases ht:t.head?=some 62
    ·rw [if_pos ht] at h;cases h;exact .inr ⟨rfl,rfl,h47,ht⟩
    ·rw [if_neg ht] at h;cases h
   ·rw [if_neg h47] at h;cases h
theorem EE {a:At} {c:UInt8} {t:ab} {l:List Ln} {self:Bool} {n:Nat} (h:jL a c t= .done l self n):(self=false∧n=1∧c=62)∨(self=true∧n=2∧c=47∧t.head?=some 62):=by
 have h2:∀l0 nm,KK l0 nm c t= .done l self n→(self=false∧n=1∧c=62)∨(self=true∧n=2∧c=47∧t.head?=some 62):=by
  intro l0 nm h
  unfold KK at h
  split at h
  ·cases h
  ·split at h
   ·cases h
   ·exact mJ h
 have h5:∀l0 nm v,Ka l0 nm v c t= .done l self n→(self=false∧n=1∧c=62)∨(self=true∧n=2∧c=47∧t.head?=some 62):=by
  intro l0 nm v h
  unfold Ka at h
  split at h
  ·exact mJ h
  ·cases h
 cases a with
 |s0 l0=>exact mJ h
 |s1 l0 nm=>
  have h:K9 l0 nm c t= .done l self n:=h
  unfold K9 at h
  split at h
  ·exact h2 _ _ h
  ·cases h
 |s2 l0 nm=>exact h2 _ _ h
 |s3 l0 nm=>
  have h:La l0 nm c t= .done l self n:=h
  unfold La at h
  split at h
  ·cases h
  ·split at h
   ·cases h
   ·split at h
    ·exact mJ h
    ·exact h5 _ _ _ h
 |s4 l0 nm v q=>
  have h:LI l0 nm v q c= .done l self n:=h
  unfold LI at h
  split at h<;>cases h
 |s5 l0 nm v=>exact h5 _ _ _ h
theorem wJ:∀(t:ab) (a:At) (l:List Ln) (self:Bool) (n:Nat),eo a t=some (l,self,n)→1≤n∧n≤t.length∧t.getD (n-1) 0=62∧(self=true→2≤n∧t.getD (n-2) 0=47)
 |[],a,l,self,n,h=>by rw [dc] at h;exact absurd h (by simp)
 |c::t,a,l,self,n,h=>by
  cases hg:jL a c t with
  |done l' self' n'=>
   rw [wq hg] at h
   simp only [Option.some.injEq,Prod.mk.injEq] at h
   obtain ⟨-,rfl,rfl⟩:=h
   rcases EE hg with ⟨rfl,rfl,rfl⟩|⟨rfl,rfl,rfl,ht⟩
   ·exact ⟨Nat.le_refl _,by simp,rfl,fun h=>by cases h⟩
   ·cases t with
    |nil=>exact absurd ht (by simp)
    |cons d r=>
     simp only [List.head?_cons,Option.some.injEq] at ht
     subst ht
     exact ⟨by decide,by simp,rfl,fun _=>⟨Nat.le_refl _,rfl⟩⟩
  |more a'=>
   rw [dV hg] at h
   cases hr:eo a' t with
   |none=>rw [hr] at h;exact absurd h (by simp)
   |some r=>
    obtain ⟨l',self',n'⟩:=r
    rw [hr] at h
    simp only [Option.map_some,rL,Option.some.injEq,Prod.mk.injEq] at h
    obtain ⟨-,rfl,rfl⟩:=h
    obtain ⟨h1,h2,h3,h4⟩:=wJ t a' l' self' n' hr
    refine ⟨by omega,by rw [List.length_cons];omega,?_,fun hs=>?_⟩
    ·rw [show n'+1-1=(n'-1)+1 by omega,List.getD_cons_succ];exact h3
    ·obtain ⟨h5,h6⟩:=h4 hs
     refine ⟨by omega,?_⟩
     rw [show n'+1-2=(n'-2)+1 by omega,List.getD_cons_succ];exact h6
end Go.Proofs.YtpmdcppnlggckaaGreatDoor
namespace Go.Proofs.YtpmdcppnlggckaaGreatDoor
open Go.RowKit Go.Lib
end Go.Proofs.YtpmdcppnlggckaaGreatDoor
