/-
  What pieces tell is just signs, with references read: plain mathematics.
-/
import Derived.Test.YtpmdcppnlggckaaGreatDoorDA
import Derived.Test.YtpmdcppnlggckaaGreatDoorRA
import Derived.Test.YtpmdcppnlggckaaGreatDoorSgBase
namespace Go.Proofs.YtpmdcppnlggckaaGreatDoor
open Go.RowKit Go.Lib
theorem Kx (n:Int):o4 n≠0:=by
 unfold o4
 by_cases h:n=0
 ·rw [if_pos h];decide
 ·rw [if_neg h]
  by_cases h1:128≤n∧n<160
  ·rw [if_pos h1]
   obtain ⟨k,hk⟩:∃k:Nat,(n-128).toNat=k:=⟨_,rfl⟩
   rw [hk]
   have hk2:k<32:=by omega
   exact (show ∀k,k<32→o3.getD k 0≠0 by decide) k hk2
  ·rw [if_neg h1];exact h
theorem xF:∀(l:ab) (n:Nat),0<n→0<l.foldl fs n
 |[],_,h=>h
 |c::l,n,h=>by
  rw [List.foldl_cons]
  exact xF l _ (by unfold fs;omega)
theorem A0:∀(l:ab) (n:Nat),(∀c∈l,js c=true)→(∃c∈l,c≠48)→0<l.foldl fs n
 |[],_,_,⟨c,h,_⟩=>by cases h
 |d::l,n,hx,⟨c,hc,h48⟩=>by
  rw [List.foldl_cons]
  have h1:=dd d (hx d (.head _))
  by_cases hd:d=48
  ·rcases List.mem_cons.1 hc with h|h
   ·exact absurd (h.trans hd) h48
   ·exact A0 l _ (fun x hx'=>hx x (.tail _ hx')) ⟨c,h,h48⟩
  ·refine xF l _ ?_
   have h2:d.toNat≠48:=fun e=>hd (UInt8.toNat_inj.1 e)
   unfold fs
   rcases h1.2.2.2.2 with ⟨a,b,e⟩|⟨a,b,e⟩<;>omega
theorem Lm (q:ab) (h:(ax q).isSome=true):rF (ax q)≠0:=by
 obtain ⟨r,hr⟩:=Option.isSome_iff_exists.1 h
 have hrow:=fU _ (iE hr)
 have:=A0 (eS r) 0 hrow.firHex hrow.firPos
 rw [hr]
 show dT (eS r)≠0
 unfold dT;omega
theorem IH (q:ab) (h:(ax q).isSome=true):validD (eL (rF (ax q)) (qb (ax q)))=true∧0∉eL (rF (ax q)) (qb (ax q)):=by
 have ha:=Lm q h
 unfold eL
 by_cases hb:qb (ax q)=0
 ·rw [if_pos hb,List.append_nil]
  exact ⟨uR _,uS _ (by omega)⟩
 ·rw [if_neg hb]
  refine ⟨Kt _ _ (uR _) (uR _),?_⟩
  rw [List.mem_append,not_or]
  exact ⟨uS _ (by omega),uS _ (by omega)⟩
theorem FQ (p:UInt8→Bool):∀(l:ab) (x:UInt8),x∈l.takeWhile p→p x=true
 |[],x,h=>by cases h
 |c::l,x,h=>by
  rw [List.takeWhile_cons] at h
  split at h
  ·rename_i hc
   rcases List.mem_cons.1 h with rfl|h
   ·exact hc
   ·exact FQ p l x h
  ·cases h
theorem IJ (b:Nat) (c:UInt8) (h:cK b c=true):c.toNat<128:=by
 unfold cK at h
 rw [decide_eq_true_iff] at h
 have h1:=h.1
 unfold bY at h1
 split at h1
 ·omega
 ·split at h1
  ·omega
  ·split at h1<;>omega
theorem FR (c:UInt8) (h:lB c=true):c.toNat<128∧48≤c.toNat:=by
 unfold lB at h
 simp only [Bool.or_eq_true,Bool.and_eq_true,Nat.ble_eq] at h
 omega
theorem uT (l:ab) (i:Nat) (h:i<l.length):l.getD i 0=l[i]:=by rw [List.getD_eq_getElem?_getD,List.getElem?_eq_getElem h];rfl
theorem A2 (z:ab):∀x∈z.take (cN z),x.toNat<128:=by
 intro x hx
 unfold cN at hx
 by_cases h:be z 0=true
 ·rw [if_pos h] at hx
  obtain ⟨i,hi,rfl⟩:=List.getElem_of_mem hx
  rw [List.length_take] at hi
  rw [List.getElem_take]
  have hlen:i<z.length:=by omega
  have hend:i<cw z 0:=by omega
  unfold be at h
  rw [decide_eq_true_iff] at h
  obtain ⟨-,h35,-⟩:=h
  rw [show (0:Int).toNat=0 from rfl] at h35
  rw [uh] at hend
  rw [←uT z i hlen]
  by_cases h0:i=0
  ·subst h0;rw [h35];decide
  by_cases hfr:i<bC z 0
  ·unfold bC at hfr
   by_cases hX:nv z (0+1)=true
   ·rw [if_pos hX] at hfr
    obtain rfl:i=1:=by omega
    unfold nv at hX
    rw [decide_eq_true_iff,Nat.zero_add] at hX
    rcases hX with e|e<;>(rw [e];decide)
   ·rw [if_neg hX] at hfr;omega
  ·by_cases hd:i<bC z 0+(aC z 0).length
   ·obtain ⟨j,rfl⟩:∃j,i=bC z 0+j:=⟨i-bC z 0,by omega⟩
    have hj:j<(aC z 0).length:=by omega
    have h1:(aC z 0)[j]∈aC z 0:=List.getElem_mem hj
    have h2:(aC z 0)[j]=(z.drop (bC z 0))[j]'(by rw [List.length_drop];omega):=by
     have hp:aC z 0<+:z.drop (bC z 0):=List.takeWhile_prefix _
     exact hp.getElem hj
    rw [List.getElem_drop] at h2
    rw [uT z _ hlen,←h2]
    exact IJ _ _ (FQ (cK (cC (nv z (0+1)))) _ _ h1)
   ·split at hend
    ·rename_i h59
     obtain rfl:i=bC z 0+(aC z 0).length:=by omega
     rw [h59];decide
    ·omega
 ·rw [if_neg h] at hx
  rcases fI ah z with h0|⟨r,hr,hp,e⟩
  ·rw [h0] at hx;cases hx
  ·rw [e,←List.prefix_iff_eq_take.1 hp] at hx
   rcases wl r hr x hx with h1|h1
   ·exact (FR x h1).1
   ·rw [h1];decide
theorem IK (z:ab):0∉z.take (aM ah z):=fun hx=>by
 rcases fI ah z with h0|⟨r,hr,hp,e⟩
 ·rw [h0] at hx;cases hx
 ·rw [e,←List.prefix_iff_eq_take.1 hp] at hx
  rcases wl r hr 0 hx with h1|h1
  ·exact absurd h1 (by decide)
  ·exact absurd h1 (by decide)
theorem IL (z:ab) (attr:Bool):validD (de z attr)=true∧0∉de z attr:=by
 unfold de
 by_cases h:be z 0=true
 ·rw [if_pos h]
  exact ⟨uR _,uS _ (Kx _)⟩
 ·rw [if_neg h]
  by_cases h0:aM ah z=0
  ·rw [if_pos h0];exact ⟨by decide,by decide⟩
  ·rw [if_neg h0]
   by_cases hk:ql z attr=true
   ·rw [if_pos hk]
    have h1:=A2 z
    unfold cN at h1
    rw [if_neg h] at h1
    refine ⟨Kw _ fun c hc=>?_,?_⟩
    ·rcases List.mem_cons.1 hc with rfl|hc
     ·decide
     ·exact h1 c hc
    ·rw [List.mem_cons,not_or]
     exact ⟨by decide,IK z⟩
   ·rw [if_neg hk]
    exact IH _ (ui z h0).1
theorem og (r:eG):dn r (ff [])=r:=by
 rw [dF r (ff []) rfl]
 split
 ·rename_i h
  obtain ⟨o,k,f⟩:=r
  simp only at h
  subst h;rfl
 ·rfl
theorem FS (r:eG) (x:ab) (t:am) (h:t.kind=0):dn (dn r (ff x)) t=dn r (ff (x++t.text)):=by
 rw [dF r (ff x) rfl,dF r (ff (x++t.text)) rfl]
 by_cases ho:r.opn=[]
 ·rw [if_pos ho,if_pos ho,dF _ t h,if_pos rfl]
  show (⟨[],r.kept,eE _ (eE _ r.flow x) t.text⟩:eG)=_
  rw [←qC];rfl
 ·rw [if_neg ho,if_neg ho,dF r t h,if_neg ho]
theorem xG (r:eG) (x:ab):renR r (ba x)=dn r (ff x):=by
 unfold ba
 split
 ·rename_i h
  rw [h,og];rfl
 ·rfl
theorem oh:∀(L:List am) (x:ab) (r:eG),renR r (cE x L)=renR (dn r (ff x)) L
 |[],x,r=>by rw [cE,xG];rfl
 |t::L,x,r=>by
  rw [cE,oc]
  split
  ·rename_i h
   rw [oh L,FS r x t h]
  ·rw [Fv,xG,oc,oh L [],og]
theorem FT (L:List am) (r:eG):renR r (bN L)=renR r L:=by
 unfold bN
 rw [oh,og]
end Go.Proofs.YtpmdcppnlggckaaGreatDoor
