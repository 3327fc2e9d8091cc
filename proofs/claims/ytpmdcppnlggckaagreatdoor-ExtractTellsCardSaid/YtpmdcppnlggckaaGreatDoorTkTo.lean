/-
  What package tok's Rest answers. (Written by wip/tools/gen_tkto.py.)
-/
import Derived.Test.YtpmdcppnlggckaaGreatDoorTkOne
import Derived.Test.YtpmdcppnlggckaaGreatDoorQH
import Derived.Test.YtpmdcppnlggckaaGreatDoorTkAhead
import Derived.Test.YtpmdcppnlggckaaGreatDoorQG
set_option maxHeartbeats 16000000
set_option maxRecDepth 100000
namespace Go.Proofs.YtpmdcppnlggckaaGreatDoor
open Go.RowKit Go.Lib
theorem GG (st:Int) (nm s:ab) (k:Nat) (hk:k≤s.length) (hst:1≤st∧st≤4) (t:am) (n:Int) (ok:Bool) (ht:nW s ((k+aR st nm (s.drop k):Nat):Int)=(t,n,ok)):(fu st nm s (k:Int)).1=ba (eQ st nm (s.drop k))++(if ok=true then [t] else [])∧((fu st nm s (k:Int)).2:Int)=n:=by
 obtain ⟨t1,t2,t3⟩:=n9 st nm s k hk hst
 by_cases hlt:k+aR st nm (s.drop k)<s.length
 ·exact t3 hlt t n ok ht
 ·have he:k+aR st nm (s.drop k)=s.length:=by omega
  rw [(mK s _ (fun h=>by
   rw [show (((k+aR st nm (s.drop k):Nat):Int)).toNat=s.length by omega,List.drop_eq_nil_of_le (Nat.le_refl _)] at h
   exact h.2 rfl)).1] at ht
  simp only [Prod.mk.injEq] at ht
  obtain ⟨-,rfl,rfl⟩:=ht
  rw [t2 he]
  exact ⟨by simp,rfl⟩
theorem vj (s:ByteArray) (a st:Int) (nm:ByteArray) (w:World) (hs:s.size≤1048576) (hn:nm.size≤1048576) (ha: -9223372036854775808≤a∧a≤9223372036854775807) (h:cc w):Calls Tryz.prog 52 #[.string s,.int .i64 a,.int .i64 st,.string nm] w fun e w'=>∃v Q n,e= .returned (.tuple #[v,.int .i64 ((n:Nat):Int)])∧aE w' w.heap.size v Q∧(Q.map aV.t,n)=fu st nm.data.toList s.data.toList a∧Q.length≤2∧(∀q∈Q,ic w.heap.size q)∧Below w.heap.size w w':=by
 obtain ⟨i0,hi0,hz0,hz1,hz2⟩:=info_parts fP
 have HW:=Lib.hid h
 have HA:=fun w=>Lib.hid (ni s a w hs ha)
 have hks:=fX s.data.toList a
 rw [oN]
 obtain ⟨k,hk⟩:∃k,ix s.data.toList a=k:=⟨_,rfl⟩
 rw [hk] at hks HA⊢
 have hkk:k≤1048576:=by rw [←Lib.size_eq] at hks;omega
 by_cases hin:1≤st∧st≤4
 ·have t3:=GG st nm.data.toList s.data.toList k hks hin
  have t1:=(n9 st nm.data.toList s.data.toList k hks hin).1
  rw [←Lib.size_eq] at hks t1
  obtain ⟨R,hR⟩:∃R,fu st nm.data.toList s.data.toList (k:Int)=R:=⟨_,rfl⟩
  rw [hR] at t3⊢
  have hd:(s.data.toList.drop k).length=s.size-k:=by rw [List.length_drop,←Lib.size_eq]
  have hsays:eQ st nm.data.toList (s.data.toList.drop k)=kn (decide (st=1)) (s.extract k (k+aR st nm.data.toList (s.data.toList.drop k))).data.toList:=by
   unfold eQ;rw [Lib.extract_data,Nat.add_sub_cancel_left]
  have hE:aR st nm.data.toList (s.data.toList.drop k)=(if st=1∨st=2 then eO nm.data.toList (s.data.toList.drop k) else if st=3 then (cQ 0 0 (s.data.toList.drop k)).1 else (s.data.toList.drop k).length):=rfl
  obtain ⟨D,hD⟩:∃D,aR st nm.data.toList (s.data.toList.drop k)=D:=⟨_,rfl⟩
  rw [hD] at t1 t3 hsays hE
  obtain ⟨E,hEE⟩:∃E,k+D=E:=⟨_,rfl⟩
  rw [hEE] at t1 t3 hsays
  have hkE:k≤E:=by omega
  have hEs:E≤1048576:=by omega
  obtain ⟨X,hX⟩:∃X,eQ st nm.data.toList (s.data.toList.drop k)=X:=⟨_,rfl⟩
  rw [hX] at t3 hsays
  have T3:=Lib.hid t3
  have R9:=fun w h=>Lib.hid (yk s (E:Int) w hs (by omega) h)
  clear t3 hD hX hR hk h
  have HTX:=fun (r:Bool) w h=>Lib.hid (yx (s.extract k E) r w (by rw [ByteArray.size_extract];omega) h)
  have hways:st=1∨st=2∨st=3∨st=4:=by omega
  rcases hways with rfl|rfl|rfl|rfl
  focus
   rw [if_pos (by decide)] at hE
   have HF:=fun w h=>Lib.hid (oV s (k:Int) nm w hs hn (by omega) h)
   rw [eu _ _ _ (by rw [←Lib.size_eq];exact hks),←hE,hEE] at HF
   have HT1:=HTX true
   rw [show kn true (s.extract k E).data.toList=X from hsays.symm] at HT1
   clear HTX hsays hE hEE hd hin ha
   go_enter Tryz.func52,Tryz.ntmps52
   go_wp2_with (go_at_call 81;refine (HA _).out.mono ?_;rintro e w1 ⟨rfl,hw1⟩;obtain rfl:=hw1.symm)
   refine (HF _ HW.out).out.mono ?_
   rintro e w1 ⟨rfl,c1⟩
   have B1:=Lib.hid c1
   clear c1
   go_wp2_with (fail)
  rotate_left
  focus
   rw [if_pos (by decide)] at hE
   have HF:=fun w h=>Lib.hid (oV s (k:Int) nm w hs hn (by omega) h)
   rw [eu _ _ _ (by rw [←Lib.size_eq];exact hks),←hE,hEE] at HF
   have HT1:=HTX false
   rw [show kn false (s.extract k E).data.toList=X from hsays.symm] at HT1
   clear HTX hsays hE hEE hd hin ha
   go_enter Tryz.func52,Tryz.ntmps52
   go_wp2_with (go_at_call 81;refine (HA _).out.mono ?_;rintro e w1 ⟨rfl,hw1⟩;obtain rfl:=hw1.symm)
   refine (HF _ HW.out).out.mono ?_
   rintro e w1 ⟨rfl,c1⟩
   have B1:=Lib.hid c1
   clear c1
   go_wp2_with (fail)
  rotate_left
  focus
   rw [if_neg (by decide),if_pos rfl] at hE
   have HF:=fun w=>Lib.hid (zY s (k:Int) w hs (by omega))
   rw [AO _ _ (by rw [←Lib.size_eq];exact hks),←hE,hEE] at HF
   obtain ⟨Y,hY⟩:∃Y,(cQ 0 0 (s.data.toList.drop k)).2=Y:=⟨_,rfl⟩
   simp only [hY] at HF
   clear hY
   have HT1:=HTX false
   rw [show kn false (s.extract k E).data.toList=X from hsays.symm] at HT1
   clear HTX hsays hE hEE hd hin ha
   go_enter Tryz.func52,Tryz.ntmps52
   go_wp2_with (go_at_call 81;refine (HA _).out.mono ?_;rintro e w1 ⟨rfl,hw1⟩;obtain rfl:=hw1.symm)
   refine (HF _).out.mono ?_
   rintro e w1 ⟨rfl,c1⟩
   have B1:=Lib.hid c1
   clear c1
   go_wp2_with (fail)
  rotate_left
  focus
   rw [if_neg (by decide),if_neg (by decide)] at hE
   obtain rfl:E=s.size:=by omega
   have HT1:=HTX false
   rw [show kn false (s.extract k s.size).data.toList=X from hsays.symm] at HT1
   clear HTX hsays hE hEE hd hin ha
   go_enter Tryz.func52,Tryz.ntmps52
   go_wp2_with (go_at_call 81;refine (HA _).out.mono ?_;rintro e w1 ⟨rfl,hw1⟩;obtain rfl:=hw1.symm)
   have B1:=Lib.hid (Below.refl w.heap.size w)
  rotate_left
  all_goals
   refine (HT1 _ (HW.out.below B1.out)).out.mono ?_
   rintro e w2 ⟨rfl,c2⟩
   have B2:=Lib.hid (B1.out.trans (c2.mono B1.out.size))
   clear c2
   by_cases hX0:X=[]
   ·obtain rfl:=hX0
    have HX0:=Lib.hid (rfl:([]:ab)=[])
    have HOC:=Lib.hid (bE w2 w.heap.size)
    have BC:=Lib.hid B2.out
    have hbs:=BC.out.size
    go_wp2_with (fail)
    refine (R9 _ (HW.out.below BC.out)).out.mono ?_
    rintro e w5 ⟨t,ad,len,cap,n,ok,rfl,hr,hv,b5,hf⟩
    obtain ⟨r1,r2⟩:=T3.out t n ok hv
    have HO5:=Lib.hid (HOC.out.below b5)
    have HA5:=Lib.hid (gE (q:=⟨t,ad,len,cap⟩) HOC.out hr hf)
    have HNA:=Lib.hid (show ic w.heap.size ⟨t,ad,len,cap⟩ from hf.elim .inl (fun h=> .inr fun k hk=>Nat.le_trans BC.out.size (h k hk)))
    have B5:=Lib.hid (BC.out.trans (b5.mono BC.out.size))
    have hbs5:=B5.out.size
    obtain ⟨R1,R2⟩:=R
    simp only at r1 r2
    subst r2
    have HR1:=Lib.hid r1
    clear hv b5 hr hf r1
    unfold dU
    cases ok
    ·go_wp2
     go_ret2
     exact ⟨.slice none 0 0,[],R2,rfl,HO5.out.alloc _,by rw [HR1.out];simp [ba],by simp,(fun q h=>by cases h),B5.out.alloc hbs5 _⟩
    ·have HO6:=Lib.hid ((HO5.out.alloc (.cells #[.int .i64 t.kind,.string ⟨t.name.toArray⟩,.string ⟨t.text.toArray⟩,.slice ad len cap,.bool t.self] 54)).alloc (.cells #[.int .i64 t.kind,.string ⟨t.name.toArray⟩,.string ⟨t.text.toArray⟩,.slice ad len cap,.bool t.self] 54))
     go_wp2_with (at_builtin;refine wpList_append_own_at _ rfl _ _ 33 rfl w.heap.size 54 i0 _ 5 72 Tryz.underlying33 hi0 hz0 hz1 hz2 rfl (by decide) _ 0 (af []) rfl (HO6.out).1 ⟨w5.heap.size+1,0,none⟩ 1 1 (af [⟨t,ad,len,cap⟩]) rfl rfl ?c1 ?c2 ?c3 ?c4 ?c5 ?_)
     case c1=>first|exact bM _ ⟨t,ad,len,cap⟩ _ _ (by simp)|(intro j u hj;rw [bo] at hj;exact hj)
     case c2=>exact cT _
     case c3=>first|(simp [maxLen];done)|(simp [maxLen];omega)|omega
     case c4=>first|decide|omega
     case c5=>first|omega|(simp;omega)
     intro v6 w6 hown1 hgr1 _ hat1
     have HP:=Lib.hid (cG HO6.out (HA5.out.below (((Below.refl _ w5).alloc (Nat.le_refl _) _).alloc (by simp) _)) ((B5.out.alloc hbs5 _).alloc (by simp;omega) _) (Nat.le_refl _) hown1 hgr1 (by simpa using hat1))
     clear hown1 hgr1 hat1
     go_wp2
     go_ret2
     exact ⟨v6,[]++[⟨t,ad,len,cap⟩],R2,rfl,HP.out.1,by rw [HR1.out];simp [ba],by simp,(fun q h=>by rw [List.mem_singleton.1 h];exact HNA.out),HP.out.2⟩
   ·have hne:=oe X hX0
    obtain ⟨hne1,hne2,hne3⟩:=hne
    have HX0:=Lib.hid hX0
    have HO0:=Lib.hid ((bE w2 w.heap.size).alloc (.cells #[.int .i64 0,.string ⟨#[]⟩,.string ⟨X.toArray⟩,.slice none 0 0,.bool false] 54))
    have hbs0:=B2.out.size
    go_wp2_with (at_builtin;refine wpList_append_own_at _ rfl _ _ 33 rfl w.heap.size 54 i0 _ 5 72 Tryz.underlying33 hi0 hz0 hz1 hz2 rfl (by decide) _ 0 (af []) rfl (HO0.out).1 ⟨w2.heap.size,0,none⟩ 1 1 (af [⟨⟨0,[],X,[],false⟩,none,0,0⟩]) rfl rfl ?c1 ?c2 ?c3 ?c4 ?c5 ?_)
    case c1=>first|exact bM _ ⟨⟨0,[],X,[],false⟩,none,0,0⟩ _ _ (by simp)|(intro j u hj;rw [bo] at hj;exact hj)
    case c2=>exact cT _
    case c3=>first|(simp [maxLen];done)|(simp [maxLen];omega)|omega
    case c4=>first|decide|omega
    case c5=>first|omega|(simp;omega)
    intro v3 w3 hown1 hgr1 _ hat1
    have HP3:=Lib.hid (cG (Q:=[]) HO0.out (l6 _ _ X) (B2.out.alloc hbs0 _) (Nat.le_refl _) hown1 hgr1 (by simpa using hat1))
    have HOC:=Lib.hid (show aE w3 w.heap.size v3 [⟨⟨0,[],X,[],false⟩,none,0,0⟩] from HP3.out.1)
    have BC:=Lib.hid HP3.out.2
    have hbs:=BC.out.size
    clear hown1 hgr1 hat1 hne1 hne2 hne3 hX0 hbs0
    go_wp2_with (fail)
    refine (R9 _ (HW.out.below BC.out)).out.mono ?_
    rintro e w5 ⟨t,ad,len,cap,n,ok,rfl,hr,hv,b5,hf⟩
    obtain ⟨r1,r2⟩:=T3.out t n ok hv
    have HO5:=Lib.hid (HOC.out.below b5)
    have HA5:=Lib.hid (gE (q:=⟨t,ad,len,cap⟩) HOC.out hr hf)
    have HNA:=Lib.hid (show ic w.heap.size ⟨t,ad,len,cap⟩ from hf.elim .inl (fun h=> .inr fun k hk=>Nat.le_trans BC.out.size (h k hk)))
    have B5:=Lib.hid (BC.out.trans (b5.mono BC.out.size))
    have hbs5:=B5.out.size
    obtain ⟨R1,R2⟩:=R
    simp only at r1 r2
    subst r2
    have HR1:=Lib.hid r1
    clear hv b5 hr hf r1
    unfold dU
    cases ok
    ·go_wp2
     go_ret2
     exact ⟨v3,[⟨⟨0,[],X,[],false⟩,none,0,0⟩],R2,rfl,HO5.out.alloc _,by rw [HR1.out];simp [ba,ff,HX0.out],by simp,(fun q h=>by rw [List.mem_singleton.1 h];exact .inl rfl),B5.out.alloc hbs5 _⟩
    ·have HO6:=Lib.hid ((HO5.out.alloc (.cells #[.int .i64 t.kind,.string ⟨t.name.toArray⟩,.string ⟨t.text.toArray⟩,.slice ad len cap,.bool t.self] 54)).alloc (.cells #[.int .i64 t.kind,.string ⟨t.name.toArray⟩,.string ⟨t.text.toArray⟩,.slice ad len cap,.bool t.self] 54))
     go_wp2_with (at_builtin;refine wpList_append_own_at _ rfl _ _ 33 rfl w.heap.size 54 i0 _ 5 72 Tryz.underlying33 hi0 hz0 hz1 hz2 rfl (by decide) _ 1 (af [⟨⟨0,[],X,[],false⟩,none,0,0⟩]) rfl (HO6.out).1 ⟨w5.heap.size+1,0,none⟩ 1 1 (af [⟨t,ad,len,cap⟩]) rfl rfl ?c1 ?c2 ?c3 ?c4 ?c5 ?_)
     case c1=>first|exact bM _ ⟨t,ad,len,cap⟩ _ _ (by simp)|(intro j u hj;rw [bo] at hj;exact hj)
     case c2=>exact cT _
     case c3=>first|(simp [maxLen];done)|(simp [maxLen];omega)|omega
     case c4=>first|decide|omega
     case c5=>first|omega|(simp;omega)
     intro v6 w6 hown1 hgr1 _ hat1
     have HP:=Lib.hid (cG HO6.out (HA5.out.below (((Below.refl _ w5).alloc (Nat.le_refl _) _).alloc (by simp) _)) ((B5.out.alloc hbs5 _).alloc (by simp;omega) _) (Nat.le_refl _) hown1 hgr1 (by simpa using hat1))
     clear hown1 hgr1 hat1
     go_wp2
     go_ret2
     exact ⟨v6,[⟨⟨0,[],X,[],false⟩,none,0,0⟩]++[⟨t,ad,len,cap⟩],R2,rfl,HP.out.1,by rw [HR1.out];simp [ba,ff,HX0.out],by simp,(fun q h=>by rcases List.mem_append.1 h with h|h;(rw [List.mem_singleton.1 h];exact .inl rfl);(rw [List.mem_singleton.1 h];exact HNA.out)),HP.out.2⟩
 ·rw [tk st _ _ k hks hin]
  have e1:(st==1)=false:=by rw [beq_eq_false_iff_ne];omega
  have e2:(st==2)=false:=by rw [beq_eq_false_iff_ne];omega
  have e3:(st==3)=false:=by rw [beq_eq_false_iff_ne];omega
  have e4:(st==4)=false:=by rw [beq_eq_false_iff_ne];omega
  clear hin hk hks ha h
  go_enter Tryz.func52,Tryz.ntmps52
  go_wp2_with (go_at_call 81;refine (HA _).out.mono ?_;rintro e w1 ⟨rfl,hw1⟩;obtain rfl:=hw1.symm)
  go_ret2
  exact ⟨.slice none 0 0,[],k,rfl,bE _ _,rfl,by simp,(fun q h=>by cases h),Below.refl _ _⟩
end Go.Proofs.YtpmdcppnlggckaaGreatDoor
