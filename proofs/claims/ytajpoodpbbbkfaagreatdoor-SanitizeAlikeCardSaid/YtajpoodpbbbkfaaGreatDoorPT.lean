/-
  Texts laid together: AttSame, Tok.
-/
import Derived.Test.YtajpoodpbbbkfaaGreatDoorP3
import Derived.Deep.QuietTactic
namespace Go.Proofs.YtajpoodpbbbkfaaGreatDoor
open Go.RowKit Go.Lib
theorem av (w:World):cf w none 0 0 []:=⟨rfl,Nat.le_refl _,by simp [maxLen],fun i h=>by cases h⟩
end Go.Proofs.YtajpoodpbbbkfaaGreatDoor
namespace Go.Proofs.YtajpoodpbbbkfaaGreatDoor
open Go.RowKit Go.Lib
structure aq where
 kind:Int
 name:ab
 text:ab
 attrs:List Ln
 self:Bool
def aJ:aq:=⟨0,[],[],[],false⟩
def eu (t:aq) (a:Option Addr) (len cap:Nat):Value:= .agg #[.int .i64 t.kind,.string ⟨t.name.toArray⟩,.string ⟨t.text.toArray⟩,.slice a len cap,.bool t.self]
theorem NO (t u:aq):(t=u)↔(t.kind=u.kind∧t.name=u.name∧t.text=u.text∧t.attrs=u.attrs∧t.self=u.self):=by
 cases t;cases u;simp
instance:DecidableEq aq:=fun t u=>decidable_of_iff _ (NO t u).symm
def fF (w:World) (b:Nat) (t:aq) (a:Option Addr) (len cap:Nat):Prop:=
 w.cell? ⟨b,0,none⟩=some (.int .i64 t.kind)∧w.cell? ⟨b,1,none⟩=some (.string ⟨t.name.toArray⟩)∧w.cell? ⟨b,2,none⟩=some (.string ⟨t.text.toArray⟩)∧w.cell? ⟨b,3,none⟩=some (.slice a len cap)∧w.cell? ⟨b,4,none⟩=some (.bool t.self)
theorem fF.below {w w':World} {b:Nat} {t:aq} {a:Option Addr} {len cap B:Nat} (h:fF w b t a len cap) (hb:Below B w w') (hB:b<B):fF w' b t a len cap:=by
 obtain ⟨h1,h2,h3,h4,h5⟩:=h
 exact ⟨(hb.cell (p:=⟨b,0,none⟩) hB).trans h1,(hb.cell (p:=⟨b,1,none⟩) hB).trans h2,(hb.cell (p:=⟨b,2,none⟩) hB).trans h3,(hb.cell (p:=⟨b,3,none⟩) hB).trans h4,(hb.cell (p:=⟨b,4,none⟩) hB).trans h5⟩
theorem pB (w:World) (t:aq) (a:Option Addr) (len cap:Nat) (T:TypeId):fF (w.alloc (.cells #[.int .i64 t.kind,.string ⟨t.name.toArray⟩,.string ⟨t.text.toArray⟩,.slice a len cap,.bool t.self] T)) w.heap.size t a len cap:=by
 refine ⟨?_,?_,?_,?_,?_⟩<;>(rw [cell_of_row _ _ _ _ _ _ (heap_alloc_new w _)];rfl)
theorem wM : (Tryz.prog.info? 33).map (·.size) = some 5 := by kernel_rfl
theorem yM (w:World) (b:Nat) (t:aq) (a:Option Addr) (len cap:Nat) (h:fF w b t a len cap):(loadVar 33 ⟨b,0,none⟩).run Tryz.prog w= .ok (eu t a len cap) w:=by
 obtain ⟨h1,h2,h3,h4,h5⟩:=h
 have hl:=run_loadCells_list (P:=Tryz.prog) (w:=w) ⟨b,0,none⟩ [.int .i64 t.kind,.string ⟨t.name.toArray⟩,.string ⟨t.text.toArray⟩,.slice a len cap,.bool t.self] (fun j v hv=>by
  have hadd:∀j,(⟨b,0,none⟩:Addr).add j=⟨b,j,none⟩:=fun j=>by unfold Addr.add;split<;>simp_all
  rw [hadd]
  match j,hv with
  |0,hv=>rw [h1];exact hv
  |1,hv=>rw [h2];exact hv
  |2,hv=>rw [h3];exact hv
  |3,hv=>rw [h4];exact hv
  |4,hv=>rw [h5];exact hv
  |j+5,hv=>simp at hv)
 have hq:=wM
 cases hi:Tryz.prog.info? 33 with
 |none=>simp [hi] at hq
 |some i=>
  have hs:i.size=5:=by simpa [hi] using hq
  have hagg:(isAgg 33).run Tryz.prog w= .ok true w:=by
   unfold isAgg
   rw [Sem.run_bind,run_underlying Tryz.underlying33 w]
   rfl
  simp only [List.length_cons,List.length_nil,Nat.reduceAdd] at hl
  simp [loadVar,Sem.run_bind,hagg,sizeOf,typeInfo,hi,hs,hl,eu]
theorem aw {fn:Func} {p u v:Tmp} (h:fn.results=#[.cell p 33,.tmp u,.tmp v]) (tmps:Array Value) (w:World) (b:Nat) (t:aq) (a:Option Addr) (len cap:Nat) (hp:tmps.getD p undef= .pointer (some ⟨b,0,none⟩)) (hT:fF w b t a len cap):(results fn tmps).run Tryz.prog w= .ok (.tuple #[eu t a len cap,tmps.getD u undef,tmps.getD v undef]) w:=by
 have hp':tmps[p]?.getD undef= .pointer (some ⟨b,0,none⟩):=by simpa using hp
 simp [results,h,hp',asAddr,yM w b t a len cap hT]
theorem ak {ops:Array Oper} {rest:List Oper} {o:Oper} {a:Act} {w:World} {Q:Exit→Act→World→Prop} (hg:o.guard=none) (x y:Operand) (ho:o.op= .store 33 x y) (g:Nat) (t:aq) (ad:Option Addr) (len cap:Nat) (hx:a.eval x= .pointer (some ⟨g,0,none⟩)) (hy:a.eval y=eu t ad len cap) (old:Array Value) (hb:w.heap[g]? =some (.cells old 33 (0,0))) (h5:old.size=5) (hK:∀w',w'.heap[g]? =some (.cells #[.int .i64 t.kind,.string ⟨t.name.toArray⟩,.string ⟨t.text.toArray⟩,.slice ad len cap,.bool t.self] 33 (0,0))→w.grownBy w' (some g)→wpList Tryz.prog ops Q rest (a.put o.dst undef) w'):wpList Tryz.prog ops Q (o::rest) a w:=by
 refine wpList_plain hg fun K' hK'=>wp_store_row 33 x y ho g #[.int .i64 t.kind,.string ⟨t.name.toArray⟩,.string ⟨t.text.toArray⟩,.slice ad len cap,.bool t.self] hx hy 33 old hb wM h5 (by simp [Value.oneCell']) (hK' _ _ (hK _ (setRow_heap w g old _ _ _ hb) ?_))
 exact ⟨rfl,rfl,rfl,by simp,fun k _ hk=>setRow_other w g k _ (fun e=>hk (by rw [e]))⟩
theorem aN {w:World} {g:Nat} {t:aq} {ad:Option Addr} {len cap:Nat} (h:w.heap[g]? =some (.cells #[.int .i64 t.kind,.string ⟨t.name.toArray⟩,.string ⟨t.text.toArray⟩,.slice ad len cap,.bool t.self] 33 (0,0))):fF w g t ad len cap:=by
 refine ⟨?_,?_,?_,?_,?_⟩<;>(rw [cell_of_row _ _ _ _ _ _ h];rfl)
theorem r8 (w:World) (g:Nat) (t:aq) (ad:Option Addr) (len cap:Nat) (h:fF w g t ad len cap):(Instr.loadAt 33 (.pointer (some ⟨g,0,none⟩))).run Tryz.prog w= .ok (eu t ad len cap) w:=by
 have:=yM w g t ad len cap h
 simp [Instr.loadAt,Instr.sureAddr,this]
theorem cC {ops:Array Oper} {rest:List Oper} {o:Oper} {a:Act} {w:World} {Q:Exit→Act→World→Prop} (hg:o.guard=none) (x:Operand) (ho:o.op= .load 33 x) (g:Nat) (t:aq) (ad:Option Addr) (len cap:Nat) (hx:a.eval x= .pointer (some ⟨g,0,none⟩)) (hT:fF w g t ad len cap) (hK:wpList Tryz.prog ops Q rest (a.put o.dst (eu t ad len cap)) w):wpList Tryz.prog ops Q (o::rest) a w:=by
 refine wpList_plain hg fun K' hK'=>?_
 unfold Oper.wp
 simp [execOp,ho,hx,r8 w g t ad len cap hT,Result.andThen]
 exact hK' _ _ hK
theorem ie {w w':World} {ad:Option Addr} {len cap:Nat} {l:List Ln} {g:Nat} (h:cf w ad len cap l) (hg:w.grownBy w' (some g)) (hne:∀k,(Value.slice ad len cap).ownBlock=some k→k≠g):cf w' ad len cap l:=by
 refine ⟨h.1,h.2.1,h.2.2.1,fun i hi=>?_⟩
 obtain ⟨x,rfl,h1,h2⟩:=h.2.2.2 i hi
 have hx:=hne x.block rfl
 have hlt:x.block<w.heap.size:=by
  have:=block_lt_of_cell h1
  rwa [show (x.add (i*2)).block=x.block by unfold Addr.add;split<;>rfl] at this
 have hb:=hg.block x.block hlt (fun e=>hx (Option.some.inj e))
 have hc:∀n,w'.cell? (x.add n)=w.cell? (x.add n):=fun n=>by
  refine World.cell?_of_block ?_
  rw [show (x.add n).block=x.block by unfold Addr.add;split<;>rfl]
  exact hb
 exact ⟨x,rfl,by rw [hc];exact h1,by rw [hc];exact h2⟩
def mV (V:aq × Int × Bool) (w:World) (e:Ending) (w':World):Prop:=
 ∃t ad len cap n ok,e= .returned (.tuple #[eu t ad len cap,.int .i64 n,.bool ok])∧cf w' ad len cap t.attrs∧V=(t,n,ok)∧Below w.heap.size w w'
def yN (V:aq × Int × Bool) (w:World) (e:Ending) (w':World):Prop:=
 ∃t ad len cap n ok,e= .returned (.tuple #[eu t ad len cap,.int .i64 n,.bool ok])∧cf w' ad len cap t.attrs∧V=(t,n,ok)∧Below w.heap.size w w'∧(t.attrs=[]∨∀k,(Value.slice ad len cap).ownBlock=some k→w.heap.size≤k)
theorem mV.plain {V:aq × Int × Bool} {w:World} {e:Ending} {w':World} (h:mV V w e w') (hV:V.1.attrs=[]):yN V w e w':=by
 obtain ⟨t,ad,len,cap,n,ok,h1,h2,h3,h4⟩:=h
 rw [h3] at hV
 exact ⟨t,ad,len,cap,n,ok,h1,h2,h3,h4,.inl hV⟩
end Go.Proofs.YtajpoodpbbbkfaaGreatDoor
