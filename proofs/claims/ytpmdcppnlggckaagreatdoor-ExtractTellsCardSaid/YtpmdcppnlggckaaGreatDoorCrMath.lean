/-
  What bytes say has at most three times as many: each byte below 128 counts three, each other one: plain mathematics.
-/
import Derived.Test.YtpmdcppnlggckaaGreatDoorSgMath
import Derived.Test.YtpmdcppnlggckaaGreatDoorP1
namespace Go.Proofs.YtpmdcppnlggckaaGreatDoor
open Go.RowKit Go.Lib
def A3 (c:UInt8):Nat:=if c.toNat<128 then 3 else 1
def g6:ab→Nat
 |[]=>0
 |c::t=>A3 c+g6 t
theorem oi:∀a b:ab,g6 (a++b)=g6 a+g6 b
 |[],b=>by rw [List.nil_append];simp [g6]
 |c::a,b=>by rw [List.cons_append,g6,g6,oi a b];omega
theorem zC (l:ab) (n:Nat):g6 l=g6 (l.take n)+g6 (l.drop n):=by rw [←oi,List.take_append_drop]
theorem li:∀l:ab,l.length≤g6 l∧g6 l≤3*l.length
 |[]=>⟨Nat.le_refl _,Nat.le_refl _⟩
 |c::t=>by
  have h:=li t
  have h1:1≤A3 c∧A3 c≤3:=by unfold A3;split<;>omega
  rw [g6,List.length_cons];omega
theorem FV:∀l:ab,(∀c∈l,c.toNat<128)→g6 l=3*l.length
 |[],_=>rfl
 |c::t,h=>by
  have h1:A3 c=3:=if_pos (h c (.head _))
  rw [g6,List.length_cons,h1,FV t (fun x hx=>h x (.tail _ hx))];omega
theorem pC:∀(n:Nat) (l:ab),l.length≤n→g6 (gF l)≤3*l.length
 |0,l,h=>by
  have:l=[]:=List.eq_nil_of_length_eq_zero (by omega)
  subst this;simp [mi,g6]
 |n+1,l,h=>by
  by_cases hne:l=[]
  ·subst hne;simp [mi,g6]
  ·have hl:0<l.length:=List.length_pos_iff.2 hne
   have hw:=decodeL_width l
   have hwl:=pJ l hne
   have hb:=mh l
   rw [kH l hne]
   cases hk:brk l with
   |true=>
    rw [if_pos rfl,oi]
    have h1:=pC n (l.drop (c9 l)) (by rw [List.length_drop];omega)
    rw [List.length_drop] at h1
    have h2:g6 jS=3:=by decide
    omega
   |false=>
    rw [if_neg (by simp),oi]
    have h1:=pC n (l.drop (decodeL l).2) (by rw [List.length_drop];omega)
    have h2:=(li (l.take (decodeL l).2)).2
    rw [List.length_drop] at h1
    rw [List.length_take] at h2
    omega
theorem zD (l:ab):g6 (gG l)≤3*l.length:=by
 cases h:hasPrefix l iz
 ·rw [iB l h];exact pC _ l (Nat.le_refl _)
 ·rw [vJ l h]
  have:=pC _ (l.drop 3) (Nat.le_refl _)
  rw [List.length_drop] at this
  omega
theorem A5:∀l:ab,g6 (aN l)≤g6 l
 |[]=>Nat.le_refl _
 |c::r=>by
  have ih:=A5 r
  rw [aN]
  split
  ·rw [g6,g6];omega
  ·split
   ·rw [g6];omega
   ·rename_i h _
    have h1:c=13:=Classical.not_not.1 h
    rw [g6,g6,h1]
    have:A3 13=3:=by decide
    have:A3 10=3:=by decide
    omega
theorem xH:∀l:ab,(ap l).length≤g6 l
 |[]=>Nat.le_refl _
 |c::r=>by
  have ih:=xH r
  have h1:1≤A3 c:=by unfold A3;split<;>omega
  rw [ap,g6]
  split
  ·rename_i h
   have:A3 c=3:=by rw [h];decide
   simp only [List.length_cons];omega
  ·rw [List.length_cons];omega
theorem A7 (attr:Bool):∀(n:Nat) (l:ab),l.length≤n→(ap (ej attr l)).length≤g6 l
 |_,[],_=>Nat.le_refl _
 |0,c::z,h=>absurd h (by simp)
 |n+1,c::z,h=>by
  rw [List.length_cons] at h
  have h1:1≤A3 c:=by unfold A3;split<;>omega
  by_cases hc:c=38
  ·subst hc
   have ih:=A7 attr n (z.drop (cN z)) (by rw [List.length_drop];omega)
   have h2:=(mz z attr).2
   have h3:=zC z (cN z)
   have h4:=FV (z.take (cN z)) (A2 z)
   have h5:=pp z
   have h6:A3 38=3:=by decide
   rw [List.length_take] at h4
   rw [uk,p7,oB _ (IL z attr).2,List.length_append,g6]
   omega
  ·have ih:=A7 attr n z (by omega)
   rw [mA attr c z hc,ap,g6]
   split
   ·rename_i h0
    have:A3 c=3:=by rw [h0];decide
    simp only [List.length_cons];omega
   ·rw [List.length_cons];omega
theorem Ky (refs:Bool) (l:ab):(kn refs l).length≤g6 l:=by
 unfold kn
 split
 ·exact A7 false _ l (Nat.le_refl _)
 ·exact xH l
theorem IM (l:ab):(ej false l).length≤g6 l:=
 Nat.le_trans (dR _).1 (A7 false _ l (Nat.le_refl _))
def xI (t:am):Nat:=if t.kind=0 then t.text.length else if t.kind=1∨t.kind=2 then 2 else 0
def sb:List am→Nat
 |[]=>0
 |t::L=>xI t+sb L
theorem zE:∀a b:List am,sb (a++b)=sb a+sb b
 |[],b=>by rw [List.nil_append];simp [sb]
 |c::a,b=>by rw [List.cons_append,sb,sb,zE a b];omega
theorem uU (x:ab):sb (ba x)=x.length:=by
 unfold ba
 split
 ·rename_i h;rw [h];rfl
 ·rfl
theorem FW (l:ab) (t:am) (n:Nat) (hr:gQ l=some (t,n)):xI t≤g6 (l.take n):=by
 obtain ⟨h1,h2,-⟩:=ep l t n hr
 have hb:aS l≠0∨aS l=0:=by omega
 have h3:xI t≤2:=by
  unfold xI
  split
  ·rw [xo l t n hr];exact Nat.zero_le _
  ·split<;>omega
 have h4:=(li (l.take n)).1
 rw [List.length_take] at h4
 have h5:1≤n:=by omega
 rcases Nat.lt_or_ge n 2 with h6|h6
 ·obtain rfl:n=1:=by omega
  have h7:=(ep l t 1 hr).2.2.1
  have hl:0<l.length:=by omega
  rw [uT l 0 hl] at h7
  have h8:l.take 1=[l[0]]:=by
   cases l with
   |nil=>simp at hl
   |cons c l=>rfl
  rw [h8,h7]
  have:g6 [62]=3:=by decide
  omega
 ·omega
theorem Lo (l:ab):(if (nx l).2.2=true then xI (nx l).1 else 0)≤g6 (l.take (nx l).2.1):=by
 rcases fQ l with ⟨h,-,e⟩|⟨h,t,n,hr,e⟩|⟨-,h,e⟩|⟨-,-,h,e⟩|⟨-,-,-,h,e⟩|⟨-,-,-,-,-,-,h,e⟩|⟨-,-,-,-,-,h,e⟩
 all_goals rw [e];simp only
 ·exact Nat.zero_le _
 ·exact FW l t n hr
 ·exact Nat.zero_le _
 ·exact Nat.zero_le _
 ·exact Nat.zero_le _
 ·exact Nat.zero_le _
 ·exact IM _
theorem IN (st:Int) (nm l:ab):sb (df st nm l).1≤g6 (l.take (df st nm l).2):=by
 have hle:=pA st nm l
 have h1:(eQ st nm l).length≤g6 (l.take (aR st nm l)):=Ky _ _
 have h2:=zC l (aR st nm l)
 have h3:sb (ba (eQ st nm l))≤g6 (l.take l.length):=by
  rw [uU,List.take_length];omega
 unfold df
 split
 ·split
  ·exact h3
  ·split
   ·cases hr:gQ (l.drop (aR st nm l)) with
    |none=>exact h3
    |some r=>
     obtain ⟨t,n⟩:=r
     have h4:=FW _ t n hr
     show sb (ba (eQ st nm l)++[t])≤g6 (l.take (aR st nm l+n))
     rw [zE,uU,List.take_add,oi]
     show _+(xI t+0)≤_
     omega
   ·rw [uU];exact h1
 ·exact Nat.zero_le _
theorem uW:∀(f:Nat) (l:ab),sb (pd f l)≤g6 l
 |0,_=>Nat.zero_le _
 |f+1,l=>by
  unfold pd
  split
  ·exact Nat.zero_le _
  ·have ih:=uW f (l.drop (jc l).2)
   have hS:sb (jc l).1≤g6 (l.take (jc l).2):=by
    have hn:=Lo l
    unfold jc
    split
    ·rename_i hk
     rw [if_pos hk] at hn
     split
     ·have h1:=IN (dh (nx l).1.name) (nx l).1.name (l.drop (nx l).2.1)
      show xI (nx l).1+sb _≤g6 (l.take ((nx l).2.1+_))
      rw [List.take_add,oi]
      omega
     ·show xI (nx l).1+0≤g6 (l.take (nx l).2.1)
      omega
    ·exact Nat.zero_le _
   have h2:=zC l (jc l).2
   rw [zE]
   omega
theorem CM (nm:ab) (f:aH):(bR nm f).size≤f.size+2:=by
 have hl:=nA nm
 have h2:∀g:aH,(lY (gk nm) g).size≤g.size+2:=fun g=>by
  unfold lY aH.size
  simp only [List.length_nil]
  omega
 by_cases hb:nm=Fu
 ·subst hb
  unfold bR oR
  rw [if_neg (show ¬0<gk Fu by decide),if_pos rfl]
  have:=iV f;omega
 ·unfold bR oR
  rw [if_neg hb]
  split
  ·exact h2 f
  ·omega
theorem IO (r:eG) (t:am):(dn r t).flow.size≤r.flow.size+xI t:=by
 have h1:=CM t.name r.flow
 have h2:=gC (decide (0<r.kept)) t.text r.flow
 by_cases k1:t.kind=1
 ·have hw:xI t=2:=by unfold xI;rw [if_neg (by rw [k1];decide),if_pos (.inl k1)]
  rw [hw,cj r t k1]
  split
  ·simp only;omega
  ·split
   ·simp only;omega
   ·simp only;omega
 ·by_cases k2:t.kind=2
  ·have hw:xI t=2:=by unfold xI;rw [if_neg (by rw [k2];decide),if_pos (.inr k2)]
   rw [hw,fh r t k2]
   split
   ·simp only;omega
   ·split
    ·simp only;omega
    ·omega
  ·by_cases k0:t.kind=0
   ·have hw:xI t=t.text.length:=by unfold xI;rw [if_pos k0]
    rw [hw,dF r t k0]
    split
    ·simp only;omega
    ·omega
   ·rw [l7 r t k0 k1 k2];omega
theorem A8:∀(L:List am) (r:eG),(renR r L).flow.size≤r.flow.size+sb L
 |[],_=>Nat.le_refl _
 |t::L,r=>by
  have h1:=A8 L (dn r t)
  have h2:=IO r t
  rw [oc,sb]
  omega
noncomputable def qX (b:ab):ab:=r4 (na (aN (gG b)))
theorem Kz (b:ab):qX b=(renR pb (eH (aN (gG b)))).flow.told:=by
 unfold qX r4 na
 rw [FT]
theorem IP (b:ab):(qX b).length≤3*b.length:=by
 rw [Kz]
 have h1:=A8 (eH (aN (gG b))) pb
 have h2:sb (eH (aN (gG b)))≤_:=uW _ _
 have h3:=A5 (gG b)
 have h4:=zD b
 have h5:pb.flow.size=0:=rfl
 have h6:(renR pb (eH (aN (gG b)))).flow.told.length≤(renR pb (eH (aN (gG b)))).flow.size:=by unfold aH.size;omega
 omega
end Go.Proofs.YtpmdcppnlggckaaGreatDoor
