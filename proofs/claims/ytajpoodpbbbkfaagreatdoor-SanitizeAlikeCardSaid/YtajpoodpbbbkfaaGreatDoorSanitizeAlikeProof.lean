/-
  The law SanitizeAlike of flail/flaillaw22 answers true for every input, and changes nothing that was there. Condition, which the card ties to the program's text: when the call begins, the package variables that the row lists hold what that text lays in them (math/bits.deBruijn32tab, math/bits.deBruijn64tab, internal/strconv.uint64pow10, strconv.ErrRange, strconv.ErrSyntax, flail/number.others).
-/
import Derived.Test.YtajpoodpbbbkfaaGreatDoorRows
import Derived.Test.YtajpoodpbbbkfaaGreatDoorSanAwake
import Derived.Test.YtajpoodpbbbkfaaGreatDoorCards
import Derived.Test.YtajpoodpbbbkfaaGreatDoorP6
import Derived.WalkKit
import Derived.ProofKit
import Derived.OpenShut
import Derived.ShutString
import Derived.ChangeOld
import Derived.Below
set_option maxHeartbeats 8000000
set_option maxRecDepth 100000
namespace Go.Proofs.YtajpoodpbbbkfaaGreatDoor.sanitizeAlike
open Go.ChangeShapes Go.WideShapes Go.ChangeAt Go.RowKit
open Go.ChangeMaps (open_string shut_string)
set_option linter.unusedVariables false
theorem own:ownKnob Tryz.prog.godebug=none:=by kernel_rfl
theorem laidOut:laidOutB Tryz.prog=true:=by kernel_rfl
def IsRow (k:IntKind) (w:World) (a:Option Addr) (len cap:Nat) (zs:List Int):Prop:=
 (a=none∧len=0∧cap=0∧zs=[])∨
 ∃x,a=some x∧len≤cap∧cap≤maxLen∧zs.length=cap∧(∀i,i<zs.length→w.cell? (x.add i)=some (.int k (zs.getD i 0)))∧∀n∈zs,(Lit.int k n).wf=true
theorem walk (a0:Int) (a1:Int) (a2:Option Addr) (len2 cap2:Nat) (z2:List Int) (a3:Option Addr) (len3 cap3:Nat) (z3:List Int) (w:World) (hT:bn w) (w0:(Lit.int .u8 a0).wf=true) (w1:(Lit.int .u8 a1).wf=true) (w2:IsRow .u8 w a2 len2 cap2 z2) (w3:IsRow .u8 w a3 len3 cap3 z3):Calls Tryz.prog 7 #[.int .u8 a0,.int .u8 a1,.slice a2 len2 cap2,.slice a3 len3 cap3] w fun e w'=>e= .returned (.bool true)∧Below w.heap.size w w':=by
 have hb0:0≤a0∧a0≤255:=by simpa [Lit.wf,IntKind.min,IntKind.max,IntKind.signed,IntKind.bits] using w0
 have hb1:0≤a1∧a1≤255:=by simpa [Lit.wf,IntKind.min,IntKind.max,IntKind.signed,IntKind.bits] using w1
 obtain ⟨l2,hl2,hc2⟩:=fw w2
 obtain ⟨l3,hl3,hc3⟩:=fw w3
 clear w0 w1 w2 w3
 have HW:=Lib.hid hT
 clear hT
 by_cases hlen:300<len2∨300<len3
 ·have hc:decide ((300:Int)<(len2:Int))=true∨decide ((300:Int)<(len2:Int))=false∧decide ((300:Int)<(len3:Int))=true:=by
   simp only [decide_eq_true_eq,decide_eq_false_iff_not];omega
  clear hlen hc2 hc3 hl2 hl3
  rcases hc with hc|⟨hc,hd⟩
  all_goals
   go_enter Tryz.func7,Tryz.ntmps7
   go_wp2_with (fail)
   refine (bT w HW.out).mono ?_
   rintro e w1 ⟨rfl,c1⟩
   go_wp2
   go_ret
   exact ⟨rfl,c1⟩
 have d2:decide ((300:Int)<(len2:Int))=false:=decide_eq_false (by omega)
 have d3:decide ((300:Int)<(len3:Int))=false:=decide_eq_false (by omega)
 obtain ⟨k,hk⟩:∃k:Nat,a0%3=(k:Int):=⟨(a0%3).toNat,by omega⟩
 obtain ⟨m,hm⟩:∃m:Nat,a1%3=(m:Int):=⟨(a1%3).toNat,by omega⟩
 have hk2:k≤2:=by omega
 have hm2:m≤2:=by omega
 have C2:=Lib.hid hc2
 have C3:=Lib.hid hc3
 have X2:=Lib.hid (iU l2 (by omega))
 have X3:=Lib.hid (iU l3 (by omega))
 have T2:=Lib.hid (gN l2 (by omega))
 have T3:=Lib.hid (gN l3 (by omega))
 obtain ⟨hs1,hs2⟩:=FY (k:Int) (m:Int) (by omega) (by omega) l2 l3
 obtain ⟨X,hX,lX,-⟩:=dP (bB (k:Int) l2)
 obtain ⟨Z,hZ,lZ,-⟩:=dP (bB (k:Int) l3)
 obtain ⟨E2,hE2,lE2,-⟩:=dP (cT l2)
 obtain ⟨E3,hE3,lE3,-⟩:=dP (cT l3)
 obtain ⟨b,hb⟩:∃b,decide (cT l2=cT l3)=b:=⟨_,rfl⟩
 have e1:(X.toList==Z.toList)=b:=by rw [ib,lX,lZ,←hb,decide_eq_decide];exact hs2
 have e2:(E2.toList==E3.toList)=b:=by rw [ib,lE2,lE3,hb]
 have H1:=fun w h1 h2=>Lib.hid (fX (k:Int) (.slice a2 len2 cap2) l2 w (by omega) h1 X2.out T2.out h2)
 have H2:=fun w h1 h2=>Lib.hid (fX (m:Int) (.slice a2 len2 cap2) l2 w (by omega) h1 X2.out T2.out h2)
 have H3:=fun w h1 h2=>Lib.hid (fX (k:Int) (.slice a3 len3 cap3) l3 w (by omega) h1 X3.out T3.out h2)
 have H4:=fun w h1 h2=>Lib.hid (rI (.slice a2 len2 cap2) l2 w h1 X2.out h2)
 have H5:=fun w h1 h2=>Lib.hid (rI (.slice a3 len3 cap3) l3 w h1 X3.out h2)
 rw [←hs1] at H2
 rw [hX] at H1 H2
 rw [hZ] at H3
 rw [hE2] at H4
 rw [hE3] at H5
 clear hX hZ hE2 hE3 lX lZ lE2 lE3 hb hs1 hs2 hc2 hc3 hl2 hl3 hlen
 go_enter Tryz.func7,Tryz.ntmps7
 go_wp2_with (fail)
 refine (bT w HW.out).mono ?_
 rintro e w1 ⟨rfl,c1⟩
 have B1:=Lib.hid c1
 clear c1
 go_wp2_with (fail)
 refine (H1 _ (C2.out.kept B1.out) (HW.out.below B1.out)).out.mono ?_
 rintro e w2 ⟨rfl,c2⟩
 have B2:=Lib.hid (B1.out.trans (c2.mono B1.out.size))
 clear c2
 go_wp2_with (fail)
 refine (H2 _ (C2.out.kept B2.out) (HW.out.below B2.out)).out.mono ?_
 rintro e w3 ⟨rfl,c3⟩
 have B3:=Lib.hid (B2.out.trans (c3.mono B2.out.size))
 clear c3
 go_wp2_with (fail)
 refine (H3 _ (C3.out.kept B3.out) (HW.out.below B3.out)).out.mono ?_
 rintro e w4 ⟨rfl,c4⟩
 have B4:=Lib.hid (B3.out.trans (c4.mono B3.out.size))
 clear c4
 go_wp2_with (fail)
 refine (H4 _ (C2.out.kept B4.out) (HW.out.below B4.out)).out.mono ?_
 rintro e w5 ⟨rfl,c5⟩
 have B5:=Lib.hid (B4.out.trans (c5.mono B4.out.size))
 clear c5
 go_wp2_with (fail)
 refine (H5 _ (C3.out.kept B5.out) (HW.out.below B5.out)).out.mono ?_
 rintro e w6 ⟨rfl,c6⟩
 have B6:=Lib.hid (B5.out.trans (c6.mono B5.out.size))
 clear c6
 go_wp2
 go_ret
 exact ⟨au (by simp),B6.out⟩
theorem laid_met (os:Os):laidMet Tryz.prog Rows.sanitizeAlikeRow.laid ((ci os).forCall (fun _ _=>0) ⟨#[],#[.int .u8 0,.int .u8 0,.slice none 0 0,.slice none 0 0],[]⟩).memory:=
 laidMet_of_run' 8 (by kernel_rfl) (by kernel_rfl)
theorem reads (os:Os) {H:Type} (enc:TypeId × Value→H):∃places,DataW.whole enc Tryz.prog ((ci os).forCall (fun _ _=>0) ⟨#[],#[.int .u8 0,.int .u8 0,.slice none 0 0,.slice none 0 0],[]⟩).memory Tryz.f7.params.toList Rows.sanitizeAlikeSpec.vars false (#[.int .u8 0,.int .u8 0,.slice none 0 0,.slice none 0 0]:Array Value).toList 8=some ([.lit (.int .u8 0),.lit (.int .u8 0),.nil,.nil],[],places):=
 ⟨[],by kernel_rfl⟩
theorem lifted (os:Os) (started:os.Started) (H:Type) (enc:TypeId × Value→H) (F:Stop.Interp):ReturnsInHanded {} Tryz.checked os 7 .any ((OpenSpec.ofChange Rows.sanitizeAlikeSpec).preRow enc Tryz.prog Tryz.f7 Rows.sanitizeAlikeRow.domain false Rows.sanitizeAlikeRow.laid) (((OpenSpec.ofChange Rows.sanitizeAlikeSpec).at F).post enc Tryz.prog Tryz.f7 false true false false):=by
 obtain ⟨places,hx⟩:=reads os enc
 refine returnsInHanded_of_row (C:=Tryz.checked) (s:=OpenSpec.ofChange Rows.sanitizeAlikeSpec) own started (by kernel_rfl) Tryz.func7 (witness_row_at (enc:=enc) (C:=Tryz.checked) false (ci os) #[.int .u8 0,.int .u8 0,.slice none 0 0,.slice none 0 0] rfl (by kernel_rfl) (by kernel_rfl) (by kernel_rfl) (OpenSpec.preRow_of_cond 8 hx (by kernel_rfl) (fun k hk=>by cases hk) (by kernel_rfl) (laid_met os))) ?_
 intro W base args ds gs before hval0 hW _ _ _ hL hsh _
 have hval:∀(j:Nat) t v,Tryz.f7.params[j]? =some t→args[j]? =some v→Value.okWide Tryz.prog W .any base t v:=hval0
 have hW':=hW
 obtain ⟨p,q,hA0,hV,rfl,hfz,hnd⟩:=hW
 have hA:DataW.TrodAll enc Tryz.prog W 0 (fun _=>true) true Tryz.f7.params.toList args.toList ds p:=hA0
 rw [Tryz.params7] at hA hval
 obtain ⟨v0,vs0,d0,ds0,p0,q0,hargs,rfl,rfl,h0,r0⟩:=trodAll_cons hA
 obtain ⟨v1,vs1,d1,ds1,p1,q1,rfl,rfl,rfl,h1,r1⟩:=trodAll_cons r0
 obtain ⟨v2,vs2,d2,ds2,p2,q2,rfl,rfl,rfl,h2,r2⟩:=trodAll_cons r1
 obtain ⟨v3,vs3,d3,ds3,p3,q3,rfl,rfl,rfl,h3,r3⟩:=trodAll_cons r2
 obtain ⟨rfl,rfl,rfl⟩:=trodAll_nil r3
 obtain rfl:args=#[v0,v1,v2,v3]:=by cases args;simp_all
 obtain ⟨rfl,rfl⟩:=trodVars_none hV
 obtain ⟨a0,rfl,rfl,rfl,w0⟩:=open_int Tryz.underlying5 (hval 0 5 v0 rfl rfl) h0
 obtain ⟨a1,rfl,rfl,rfl,w1⟩:=open_int Tryz.underlying5 (hval 1 5 v1 rfl rfl) h1
 obtain ⟨a2,len2,cap2,rfl⟩:=okWide_slice Tryz.underlying22 (hval 2 22 v2 rfl rfl)
 have k2:=h2
 have lt2:∀x∈p2,x.block<W.heap.size:=by obtain ⟨m,hm⟩:=k2;exact DataW.trod_lt m _ _ _ hm
 obtain ⟨z2,w2⟩:∃zs,IsRow .u8 W a2 len2 cap2 zs:=by
  obtain ⟨fuel,hf⟩:=h2
  rcases open_ints Tryz.underlying22 Tryz.underlying5 (by kernel_rfl) hf with ⟨hcs,_⟩|⟨x,l,c,zs,hcs,_,hl,hm,hz,_,hcell,hwz⟩
  ·simp [Value.cells] at hcs
   obtain ⟨rfl,rfl,rfl⟩:=hcs
   exact ⟨[],.inl ⟨rfl,rfl,rfl,rfl⟩⟩
  ·simp [Value.cells] at hcs
   obtain ⟨rfl,rfl,rfl⟩:=hcs
   exact ⟨zs,.inr ⟨_,rfl,hl,hm,by simpa using hz,hcell,hwz⟩⟩
 obtain ⟨a3,len3,cap3,rfl⟩:=okWide_slice Tryz.underlying22 (hval 3 22 v3 rfl rfl)
 have k3:=h3
 have lt3:∀x∈p3,x.block<W.heap.size:=by obtain ⟨m,hm⟩:=k3;exact DataW.trod_lt m _ _ _ hm
 obtain ⟨z3,w3⟩:∃zs,IsRow .u8 W a3 len3 cap3 zs:=by
  obtain ⟨fuel,hf⟩:=h3
  rcases open_ints Tryz.underlying22 Tryz.underlying5 (by kernel_rfl) hf with ⟨hcs,_⟩|⟨x,l,c,zs,hcs,_,hl,hm,hz,_,hcell,hwz⟩
  ·simp [Value.cells] at hcs
   obtain ⟨rfl,rfl,rfl⟩:=hcs
   exact ⟨[],.inl ⟨rfl,rfl,rfl,rfl⟩⟩
  ·simp [Value.cells] at hcs
   obtain ⟨rfl,rfl,rfl⟩:=hcs
   exact ⟨zs,.inr ⟨_,rfl,hl,hm,by simpa using hz,hcell,hwz⟩⟩
 clear hA0 hval0
 refine (walk a0 a1 a2 len2 cap2 z2 a3 len3 cap3 z3 W (ly hL hsh) w0 w1 w2 w3).mono fun e W' ⟨he,bel⟩=>?_
 subst he
 exact ⟨_,rfl,_,_,_,[],_,[],hW',trodAll_mk1 (shut_bool Tryz.underlying4 _),(trodAll_cons_mk (shut_int Tryz.underlying5 w0) (trodAll_cons_mk (shut_int Tryz.underlying5 w1) (trodAll_cons_mk (Below.trod laidOut (by kernel_rfl) (of_decide_eq_true (by kernel_rfl)) k2 bel lt2) (trodAll_cons_mk (Below.trod laidOut (by kernel_rfl) (of_decide_eq_true (by kernel_rfl)) k3 bel lt3) trodAll_mk0)))),rfl,bel.frame _,fun h=>by cases h⟩
theorem said:Rows.SanitizeAlikeSaid:=
 OpenClaim.holds_of_cond 7 Tryz.f7 rfl rfl rfl rfl rfl rfl rfl ⟨rfl,rfl,rfl,rfl,rfl⟩ rfl rfl rfl rfl rfl (by kernel_rfl) Tryz.func7 (by kernel_rfl) (of_decide_eq_true (by kernel_rfl)) (by unfold Func.isWrapper;first|(rw [if_pos (by decide+kernel)];kernel_rfl)|(rw [if_neg (by decide+kernel)];exact ⟨rfl,rfl⟩)) (fun os started H enc _ F=>by rw [OpenClaim.pre_eq_preRow];exact lifted os started H enc F)
theorem plain (f:FuncId) (fn:Func) (hf:Tryz.pinned.checked.prog.funcNamed "flail/flaillaw22.SanitizeAlike" =some f) (hfn:Tryz.pinned.checked.prog.funcs[f]? =some fn):true=Tryz.pinned.checked.prog.looks []∧∀(j:Nat) t,fn.params[j]? =some t→Tryz.pinned.checked.prog.wantsStandIn t=false:=by
 obtain rfl:f=7:=Option.some.inj ((show Tryz.prog.funcNamed "flail/flaillaw22.SanitizeAlike" =some 7 by kernel_rfl).symm.trans hf) |>.symm
 obtain rfl:fn=Tryz.f7:=(Option.some.inj (Tryz.func7.symm.trans hfn)).symm
 refine ⟨by kernel_rfl,fun j t ht=>?_⟩
 rw [Tryz.params7] at ht
 have hm:t∈[5,22]:=by first|simpa using Array.mem_of_getElem? ht|(have h:=Array.mem_of_getElem? ht;simp at h⊢;grind)
 have hall:([5,22].all fun u=> !Tryz.prog.wantsStandIn u)=true:=by kernel_rfl
 exact (show Tryz.prog.wantsStandIn t=false by simpa using List.all_eq_true.1 hall t hm)
theorem proved:Rows.SanitizeAlikeCardSaid:=
 Claim7.holds_tied_plain_at .later [] _ _ _ _ said (fun _ h=>by cases h) (by kernel_rfl) (fun _ h=>by cases h) sanitizeAlike_row_tie rfl ⟨rfl,rfl⟩ (by kernel_rfl) rfl plain (by kernel_rfl)
end Go.Proofs.YtajpoodpbbbkfaaGreatDoor.sanitizeAlike
