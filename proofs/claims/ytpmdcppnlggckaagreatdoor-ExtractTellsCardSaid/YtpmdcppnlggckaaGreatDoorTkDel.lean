/-
  What the library's slices.DeleteFunc does to a row of tokens, with package tok's silent.
-/
import Derived.Test.YtpmdcppnlggckaaGreatDoorTkDrop
set_option maxHeartbeats 16000000
set_option maxRecDepth 100000
namespace Go.Proofs.YtpmdcppnlggckaaGreatDoor
open Go.RowKit Go.Lib
theorem sr (w:World) (f:Value):Calls Tryz.prog 94 #[.slice none 0 0,f] w fun e w'=>e= .returned (.slice none 0 0)∧w'=w:=by
 have HI:=fun w=>Lib.hid (ve w f)
 go_enter Tryz.func94,Tryz.ntmps94
 go_wp2_with (fail)
 refine (HI _).out.mono ?_
 rintro e w1 ⟨rfl,rfl⟩
 go_wp2
 go_ret
 exact ⟨rfl,rfl⟩
theorem ss (B g cap n:Nat) (D:List aV) (R:List Value) (w:World) (h:gV w g cap D R) (hn:D.length=n) (hB:B≤g):Calls Tryz.prog 94 #[.slice (some ⟨g,0,none⟩) n cap,.func (.func 96) #[] #[]] w fun e w'=>∃E m,e= .returned (.slice (some ⟨g,0,none⟩) m cap)∧gV w' g cap E R∧m≤n∧E.length=n∧E.take m=(D.filter fun q=> !du q.t)∧Below B w w':=by
 have hm:=h.most
 have hf:=h.fits
 unfold maxLen at hm
 have H:=Lib.hid h
 have HN:=Lib.hid hn
 have hnc:n≤cap:=by omega
 have hgl:=h.lt
 have HB0:=Lib.hid hB
 have HI:=fun w h=>Lib.hid (vf g cap n D R w h hn)
 clear h hn hf hB
 go_enter Tryz.func94,Tryz.ntmps94
 go_wp2_with (fail)
 refine (HI _ H.out).out.mono ?_
 rintro e w1 ⟨⟨r,rfl,hr⟩,b1⟩
 have H1:=Lib.hid (H.out.below b1 (Nat.le_refl _))
 have B1:=Lib.hid (b1.mono (show B≤w.heap.size by have:=HB0.out;omega))
 clear b1 HI
 rcases hr with ⟨rfl,hall⟩|⟨k,hk,rfl,hs,hall⟩
 ·have HA:=Lib.hid hall
  clear hall
  go_wp2
  go_ret
  refine ⟨D,n,rfl,H1.out,Nat.le_refl _,HN.out,?_,B1.out⟩
  have:=oO (L:=D) (k:=D.length) (fun j hj _=>HA.out j hj) (Nat.le_refl _)
  rw [List.take_length] at this
  rw [this,List.take_of_length_le (by rw [HN.out];exact Nat.le_refl _)]
 ·have HK0:=Lib.hid (mY.start hall hk hs)
  have hkn:k<n:=by rw [←HN.out];exact hk
  have hne:((k:Int)== -1)=false:=beq_eq_false_iff_ne.2 (by omega)
  clear hall hk hs
  go_wp2
  clear hne
  go_loopw [5,6,7] (fun v5 v6 _ wr=>∃(i j:Nat) (E:List aV),v5= .int .i64 (i:Int)∧v6= .int .i64 (j:Int)∧i<j∧j≤n∧gV wr g cap E R∧Below B w wr∧Hid (mY D E j i)) (fun _ v _ _=>n-(ae v).toNat)
  case atStart=>exact ⟨k,k+1,D,rfl,by go_num,by omega,by omega,H1.out,B1.out,HK0⟩
  case round=>
   obtain ⟨i,j,E,rfl,rfl,hij,hjn,hrow,hb,HK⟩:=hrel
   have HR:=Lib.hid hrow
   have HB:=Lib.hid hb
   have hgr:=hrow.lt
   have hE:=HK.out.len
   rw [HN.out] at hE
   have hbs:=hb.size
   clear hrow hb H1 B1 HK0
   by_cases hlt:j<n
   ·have hjE:j<E.length:=by omega
    have hjD:j<D.length:=by rw [HN.out];exact hlt
    have hiE:i<E.length:=by omega
    obtain ⟨x0,x1,x2,x3,x4⟩:=HR.out.asked j hjE
    have hget:=HK.out.get hjD
    obtain ⟨q,hq⟩:∃q,E[j]'hjE=q:=⟨_,rfl⟩
    rw [hq] at x0 x1 x2 x3 x4 hget
    have HQ:=Lib.hid (HR.out.atts q (by rw [←hq];exact List.getElem_mem hjE))
    have HC:=fun w=>Lib.hid (rd q.t q.ad q.len q.cap w)
    obtain ⟨b,hb⟩:∃b,du q.t=b:=⟨_,rfl⟩
    rw [hb] at HC
    have hbD:du (D[j]'hjD).t=b:=by rw [←hget];exact hb
    have HG:=Lib.hid hget
    have HDB:=Lib.hid hbD
    clear hq hb hget hbD
    unfold dU at HC
    cases b
    ·have HK1:=Lib.hid (HK.out.keep hjD HDB.out)
     rw [←HG.out] at HK1
     go_wp2_with (fail)
     refine (HC _).out.mono ?_
     rintro e w3 ⟨rfl,b3⟩
     have HV:=Lib.hid (((nN wr q.t q.ad q.len q.cap 54)).below b3 (by simp))
     have HR3:=Lib.hid ((HR.out.below ((Below.refl _ wr).alloc (Nat.le_refl _) _) (Nat.le_refl _)).below b3 (Nat.le_refl _))
     have HQ3:=Lib.hid (show uM w3 g q from ⟨(HQ.out.1.below ((Below.refl _ wr).alloc (Nat.le_refl _) _) (Nat.le_refl _)).below b3 (Nat.le_refl _),HQ.out.2⟩)
     have B3:=Lib.hid ((HB.out.alloc (by have:=HB0.out;omega) _).trans (b3.mono (by simp;have:=HB0.out;omega)))
     clear b3
     go_wp2_with (first
      |(refine ci rfl _ rfl wr.heap.size q.t q.ad q.len q.cap rfl HV.out ?_)
      |(refine l8 rfl _ _ rfl g i q _ rfl (by simp) rfl HR3.out hiE HQ3.out ?_;intro w4 hr4 hg4))
     have B4:=Lib.hid (B3.out.grown hg4 (by have:=HB0.out;have:=HR3.out.lt;omega) (fun k hk=>by cases hk;exact HB0.out))
     have HR4:=Lib.hid hr4
     clear hr4 hg4
     go_wp2
     go_roundw
     case rel=>exact ⟨i+1,j+1,_,by go_num,by go_num,by omega,by omega,HR4.out,B4.out,HK1⟩
     case measure=>simp [ae];omega
    ·have HK1:=Lib.hid (HK.out.skip hjD HDB.out)
     go_wp2_with (fail)
     refine (HC _).out.mono ?_
     rintro e w3 ⟨rfl,b3⟩
     have HR3:=Lib.hid ((HR.out.below ((Below.refl _ wr).alloc (Nat.le_refl _) _) (Nat.le_refl _)).below b3 (Nat.le_refl _))
     have B3:=Lib.hid ((HB.out.alloc (by have:=HB0.out;omega) _).trans (b3.mono (by simp;have:=HB0.out;omega)))
     clear b3
     go_wp2
     go_roundw
     case rel=>exact ⟨i,j+1,E,rfl,by go_num,by omega,by omega,HR3.out,B3.out,HK1⟩
     case measure=>simp [ae];omega
   ·obtain rfl:j=n:=by omega
    have HD1:Hid (E.take i=D.filter fun q=> !du q.t):=Lib.hid (by
     have:=HK.out
     have hl:=HN.out
     rw [←hl] at this
     exact this.done)
    have hic:cap≠i:=by omega
    have hin:i≤j:=by omega
    obtain ⟨w4,hcl,hr4,hg4⟩:=zB HR.out i (by omega) 33 0 Tryz.underlying33 (j-i) (cap-i) (by omega)
    have B4:=Lib.hid (HB.out.grown hg4 (by have:=HB0.out;have:=HR.out.lt;omega) (fun k hk=>by cases hk;exact HB0.out))
    have HR4:=Lib.hid hr4
    clear hr4 hg4
    go_wp2
    go_ret
    refine ⟨_,i,rfl,HR4.out,hin,by simp;omega,?_,B4.out⟩
    rw [List.take_append_of_le_length (by rw [List.length_take];omega),List.take_of_length_le (by rw [List.length_take];omega)]
    exact HD1.out
end Go.Proofs.YtpmdcppnlggckaaGreatDoor
