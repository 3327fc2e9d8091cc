/-
  The law ExtractTells of flail/flaillaw20 answers true for every input, and changes nothing that was there. Condition, which the card ties to the program's text: when the call begins, the package variables that the row lists hold what that text lays in them (math/bits.deBruijn32tab, math/bits.deBruijn64tab, internal/strconv.uint64pow10, strconv.ErrRange, strconv.ErrSyntax, flail/number.others).
-/
import Derived.Test.YtpmdcppnlggckaaGreatDoorRows
import Derived.Test.YtpmdcppnlggckaaGreatDoorExtAwake
import Derived.Test.YtpmdcppnlggckaaGreatDoorRefExt
import Derived.Test.YtpmdcppnlggckaaGreatDoorCards
import Derived.Test.YtpmdcppnlggckaaGreatDoorP6
import Derived.WalkKit
import Derived.ProofKit
import Derived.OpenShut
import Derived.ShutString
import Derived.ChangeOld
import Derived.Below
set_option maxHeartbeats 8000000
set_option maxRecDepth 100000
namespace Go.Proofs.YtpmdcppnlggckaaGreatDoor.extractTells
open Go.ChangeShapes Go.WideShapes Go.ChangeAt Go.RowKit
open Go.ChangeMaps (open_string shut_string)
set_option linter.unusedVariables false
theorem own:ownKnob Tryz.prog.godebug=none:=by kernel_rfl
theorem laidOut:laidOutB Tryz.prog=true:=by kernel_rfl
def IsRow (k:IntKind) (w:World) (a:Option Addr) (len cap:Nat) (zs:List Int):Prop:=
 (a=none∧len=0∧cap=0∧zs=[])∨
 ∃x,a=some x∧len≤cap∧cap≤maxLen∧zs.length=cap∧(∀i,i<zs.length→w.cell? (x.add i)=some (.int k (zs.getD i 0)))∧∀n∈zs,(Lit.int k n).wf=true
theorem walk (a0:Option Addr) (len0 cap0:Nat) (z0:List Int) (w:World) (hT:cc w) (w0:IsRow .u8 w a0 len0 cap0 z0):Calls Tryz.prog 3 #[.slice a0 len0 cap0] w fun e w'=>e= .returned (.bool true)∧Below w.heap.size w w':=by
 obtain ⟨l,hl,hb⟩:=xQ w0
 clear w0
 have HW:=Lib.hid hT
 clear hT
 by_cases hlen:300<len0
 ·have Hb:=Lib.hid hb
  clear hb hl
  go_enter Tryz.func3,Tryz.ntmps3
  go_wp2_with (go_at_call 9;refine (nt w HW.out).mono ?_;rintro e w1 ⟨rfl,hb1⟩)
  go_ret
  exact ⟨rfl,hb1⟩
 ·have hlen':len0≤300:=by omega
  have HX:=Lib.hid (zH l (by omega))
  have HB:=Lib.hid hb
  clear hb hl hlen
  obtain ⟨X,hX⟩:∃X:ByteArray,(⟨(qX l).toArray⟩:ByteArray)=X:=⟨_,rfl⟩
  have HXX:=Lib.hid hX
  clear hX
  go_enter Tryz.func3,Tryz.ntmps3
  go_wp2_with (fail)
  refine (nt w HW.out).mono ?_
  rintro e w1 ⟨rfl,c1⟩
  have B1:=Lib.hid c1
  clear c1
  go_wp2_with (fail)
  refine (vt _ l _ (HB.out.kept B1.out) HX.out (HW.out.below B1.out)).mono ?_
  rintro e w2 ⟨rfl,c2⟩
  rw [HXX.out]
  have B2:=Lib.hid (B1.out.trans (c2.mono B1.out.size))
  clear c2
  go_wp2_with (fail)
  refine (Ad _ l _ (HB.out.kept B2.out) HX.out).mono ?_
  rintro e w3 ⟨rfl,c3⟩
  rw [HXX.out]
  have B3:=Lib.hid (B2.out.trans (c3.mono B2.out.size))
  clear c3
  go_wp2
  go_ret
  exact ⟨az (by simp),B3.out⟩
theorem laid_met (os:Os):laidMet Tryz.prog Rows.extractTellsRow.laid ((nM os).forCall (fun _ _=>0) ⟨#[],#[.slice none 0 0],[]⟩).memory:=
 laidMet_of_run' 8 (by kernel_rfl) (by kernel_rfl)
theorem reads (os:Os) {H:Type} (enc:TypeId × Value→H):∃places,DataW.whole enc Tryz.prog ((nM os).forCall (fun _ _=>0) ⟨#[],#[.slice none 0 0],[]⟩).memory Tryz.f3.params.toList Rows.extractTellsSpec.vars false (#[.slice none 0 0]:Array Value).toList 8=some ([.nil],[],places):=
 ⟨[],by kernel_rfl⟩
theorem lifted (os:Os) (started:os.Started) (H:Type) (enc:TypeId × Value→H) (F:Stop.Interp):ReturnsInHanded {} Tryz.checked os 3 .any ((OpenSpec.ofChange Rows.extractTellsSpec).preRow enc Tryz.prog Tryz.f3 Rows.extractTellsRow.domain false Rows.extractTellsRow.laid) (((OpenSpec.ofChange Rows.extractTellsSpec).at F).post enc Tryz.prog Tryz.f3 false true false false):=by
 obtain ⟨places,hx⟩:=reads os enc
 refine returnsInHanded_of_row (C:=Tryz.checked) (s:=OpenSpec.ofChange Rows.extractTellsSpec) own started (by kernel_rfl) Tryz.func3 (witness_row_at (enc:=enc) (C:=Tryz.checked) false (nM os) #[.slice none 0 0] rfl (by kernel_rfl) (by kernel_rfl) (by kernel_rfl) (OpenSpec.preRow_of_cond 8 hx (by kernel_rfl) (fun k hk=>by cases hk) (by kernel_rfl) (laid_met os))) ?_
 intro W base args ds gs before hval0 hW _ _ _ hL hsh _
 have hval:∀(j:Nat) t v,Tryz.f3.params[j]? =some t→args[j]? =some v→Value.okWide Tryz.prog W .any base t v:=hval0
 have hW':=hW
 obtain ⟨p,q,hA0,hV,rfl,hfz,hnd⟩:=hW
 have hA:DataW.TrodAll enc Tryz.prog W 0 (fun _=>true) true Tryz.f3.params.toList args.toList ds p:=hA0
 rw [Tryz.params3] at hA hval
 obtain ⟨v0,vs0,d0,ds0,p0,q0,hargs,rfl,rfl,h0,r0⟩:=trodAll_cons hA
 obtain ⟨rfl,rfl,rfl⟩:=trodAll_nil r0
 obtain rfl:args=#[v0]:=by cases args;simp_all
 obtain ⟨rfl,rfl⟩:=trodVars_none hV
 obtain ⟨a0,len0,cap0,rfl⟩:=okWide_slice Tryz.underlying22 (hval 0 22 v0 rfl rfl)
 have k0:=h0
 have lt0:∀x∈p0,x.block<W.heap.size:=by obtain ⟨m,hm⟩:=k0;exact DataW.trod_lt m _ _ _ hm
 obtain ⟨z0,w0⟩:∃zs,IsRow .u8 W a0 len0 cap0 zs:=by
  obtain ⟨fuel,hf⟩:=h0
  rcases open_ints Tryz.underlying22 Tryz.underlying5 (by kernel_rfl) hf with ⟨hcs,_⟩|⟨x,l,c,zs,hcs,_,hl,hm,hz,_,hcell,hwz⟩
  ·simp [Value.cells] at hcs
   obtain ⟨rfl,rfl,rfl⟩:=hcs
   exact ⟨[],.inl ⟨rfl,rfl,rfl,rfl⟩⟩
  ·simp [Value.cells] at hcs
   obtain ⟨rfl,rfl,rfl⟩:=hcs
   exact ⟨zs,.inr ⟨_,rfl,hl,hm,by simpa using hz,hcell,hwz⟩⟩
 clear hA0 hval0
 refine (walk a0 len0 cap0 z0 W (Ez hL hsh) w0).mono fun e W' ⟨he,bel⟩=>?_
 subst he
 exact ⟨_,rfl,_,_,_,[],_,[],hW',trodAll_mk1 (shut_bool Tryz.underlying4 _),(trodAll_cons_mk (Below.trod laidOut (by kernel_rfl) (of_decide_eq_true (by kernel_rfl)) k0 bel lt0) trodAll_mk0),rfl,bel.frame _,fun h=>by cases h⟩
theorem said:Rows.ExtractTellsSaid:=
 OpenClaim.holds_of_cond 3 Tryz.f3 rfl rfl rfl rfl rfl rfl rfl ⟨rfl,rfl,rfl,rfl,rfl⟩ rfl rfl rfl rfl rfl (by kernel_rfl) Tryz.func3 (by kernel_rfl) (of_decide_eq_true (by kernel_rfl)) (by unfold Func.isWrapper;first|(rw [if_pos (by decide+kernel)];kernel_rfl)|(rw [if_neg (by decide+kernel)];exact ⟨rfl,rfl⟩)) (fun os started H enc _ F=>by rw [OpenClaim.pre_eq_preRow];exact lifted os started H enc F)
theorem plain (f:FuncId) (fn:Func) (hf:Tryz.pinned.checked.prog.funcNamed "flail/flaillaw20.ExtractTells" =some f) (hfn:Tryz.pinned.checked.prog.funcs[f]? =some fn):true=Tryz.pinned.checked.prog.looks []∧∀(j:Nat) t,fn.params[j]? =some t→Tryz.pinned.checked.prog.wantsStandIn t=false:=by
 obtain rfl:f=3:=Option.some.inj ((show Tryz.prog.funcNamed "flail/flaillaw20.ExtractTells" =some 3 by kernel_rfl).symm.trans hf) |>.symm
 obtain rfl:fn=Tryz.f3:=(Option.some.inj (Tryz.func3.symm.trans hfn)).symm
 refine ⟨by kernel_rfl,fun j t ht=>?_⟩
 rw [Tryz.params3] at ht
 have hm:t∈[22]:=by first|simpa using Array.mem_of_getElem? ht|(have h:=Array.mem_of_getElem? ht;simp at h⊢;grind)
 have hall:([22].all fun u=> !Tryz.prog.wantsStandIn u)=true:=by kernel_rfl
 exact (show Tryz.prog.wantsStandIn t=false by simpa using List.all_eq_true.1 hall t hm)
theorem proved:Rows.ExtractTellsCardSaid:=
 Claim7.holds_tied_plain_at .later [] _ _ _ _ said (fun _ h=>by cases h) (by kernel_rfl) (fun _ h=>by cases h) extractTells_row_tie rfl ⟨rfl,rfl⟩ (by kernel_rfl) rfl plain (by kernel_rfl)
end Go.Proofs.YtpmdcppnlggckaaGreatDoor.extractTells
