/-
  What package tok's Next, Rest, Tok and Join answer.
-/
import Derived.Test.YtpmdcppnlggckaaGreatDoorTkTo
import Derived.Test.YtpmdcppnlggckaaGreatDoorTkJoined
import Derived.Test.YtpmdcppnlggckaaGreatDoorQH
import Derived.Test.YtpmdcppnlggckaaGreatDoorQI
import Derived.Test.YtpmdcppnlggckaaGreatDoorQB
namespace Go.Proofs.YtpmdcppnlggckaaGreatDoor
open Go.RowKit Go.Lib
theorem aE.toldN {w:World} {base:Nat} {v:Value} {Q:List aV} (h:aE w base v Q) (B:Nat) (hn:∀q∈Q,ic B q):∃a cap,v= .slice a Q.length cap∧bS w B a Q.length cap (Q.map aV.t):=by
 have hc:=fun g hg=>h.1.cells (g:=g) hg
 rcases h.1.2 with ⟨rfl,h0⟩|⟨g,cap,cur,rfl,hb,hg,hn',hm,hs,htake⟩
 ·refine ⟨none,0,by rw [h0],by simp,by omega,by simp [maxLen],fun i hi=>?_⟩
  rw [List.length_map] at hi;omega
 ·refine ⟨_,cap,rfl,by simp,hn',hm,fun i hi=>?_⟩
  have hi':i<Q.length:=by simpa using hi
  obtain ⟨e0,e1,e2,e3,e4⟩:=gD Q i hi'
  refine ⟨_,Q[i].ad,Q[i].len,Q[i].cap,rfl,⟨?_,?_,?_,?_,?_⟩,?_,?_⟩
  all_goals simp only [List.getElem_map]
  ·exact hc g rfl _ _ e0
  ·exact hc g rfl _ _ e1
  ·exact hc g rfl _ _ e2
  ·exact hc g rfl _ _ e3
  ·exact hc g rfl _ _ e4
  ·exact (h.2 Q[i] (List.getElem_mem hi')).1
  ·exact hn Q[i] (List.getElem_mem hi')
theorem fF.new {w:World} {a:Option Addr} {len cap:Nat} {L:List am} (h:fF w a len cap L):bS w 0 a len cap L:=
 ⟨h.1,h.2.1,h.2.2.1,fun i hi=>by
  obtain ⟨x,ad,ln,cp,h1,h2,h3⟩:=h.2.2.2 i hi
  exact ⟨x,ad,ln,cp,h1,h2,h3,.inr fun k _=>Nat.zero_le k⟩⟩
theorem yB (B:Nat) (a:Option Addr) (len cap:Nat) (L:List am) (w:World) (hL:bS w B a len cap L) (hlen:len≤2097152) (htx:∀t∈L,t.text.length≤16777216) (hj:∀t∈L,iZ t):Calls Tryz.prog 53 #[.slice a len cap] w fun e w'=>∃v Q,e= .returned v∧aE w' w.heap.size v Q∧Q.map aV.t=bN L∧(∀q∈Q,ic B q)∧Below w.heap.size w w':=by
 cases a with
 |some x=>exact yz B x len cap L w hL hlen htx hj
 |none=>
  have hnil:L=[]:=by
   cases L with
   |nil=>rfl
   |cons t L=>
    obtain ⟨x,_,_,_,h,_⟩:=hL.2.2.2 0 (Nat.succ_pos _)
    cases h
  subst hnil
  refine (vk len cap w).mono ?_
  rintro e w' ⟨rfl,rfl⟩
  exact ⟨_,[],rfl,bE _ _,rfl,(fun q h=>by cases h),Below.refl _ _⟩
end Go.Proofs.YtpmdcppnlggckaaGreatDoor
