/- A store in a variable of a draw's, beside the cursor. No statement of the program in it but its table of types. A server in memory: its store, and what waits, in rows of a call's own. No statement of the program but its table of types. Cells written below the rows of answers that wait. No program in it. Answers that wait, as what is appended. No statement of the program but its table of types. A drawn server in memory. A server and a list of what waited, answered together. No statement of the program but its table of types. What SyncAll answers: a model. Rows of truths in memory: what they hold, rows that a call has made. No statement of the program but its table of types. What CrashServer answers: a model. Uploads that rise: where one is put, which one is gone, said as the program goes; no program in it. -/
import Derived.Test.YtlkgopoicpnacaaGreatDoorM17
import Derived.Test.YtlkgopoicpnacaaGreatDoorM17
import Derived.Test.YtlkgopoicpnacaaGreatDoorM17
import Derived.Test.YtlkgopoicpnacaaGreatDoorM07
import Derived.Test.YtlkgopoicpnacaaGreatDoorM04
import Derived.Deep.AppendSrc
import Derived.Test.YtlkgopoicpnacaaGreatDoorM06
import Derived.Deep.RegionHeld3
import Derived.Deep.QuietTactic
import Derived.Test.YtlkgopoicpnacaaGreatDoorM05
import Derived.Test.YtlkgopoicpnacaaGreatDoorM03
import Derived.Lib.Strings
namespace Go.Proofs.YtlkgopoicpnacaaGreatDoor
open Go.RowKit
set_option linter.unusedVariables false

/-- Rows behind a bound are as they were where a cursor ahead of it moves. -/
theorem StoAt.moved {W W' : World} {lo c : Nat} {A : Option Addr} {n C : Nat} {X : List ByteArray} {A' : Option Addr} {n' C' : Nat} {Y : List ByteArray} {ua : Option Addr} {un uc : Nat} {l : List UE} (h : StoAt W lo A n C X A' n' C' Y ua un uc l) (hg : W.grownBy W' (some c)) (hc : c < lo) : StoAt W' lo A n C X A' n' C' Y ua un uc l := by
  refine ⟨h.now.kept hg (fun q hq hq2 => ?_), h.sure.kept hg (fun q hq hq2 => ?_), h.apart, h.ups.grown hg (fun q hq hq2 => ?_) (fun e he q hq hq2 => ?_), h.len⟩
  · injection hq with hq; have := (h.now.lt q hq2).1; omega
  · injection hq with hq; have := (h.sure.lt q hq2).1; omega
  · injection hq with hq; have := (h.ups.lts.1 q hq2).1; omega
  · injection hq with hq; have := (h.ups.lts.2 e he q hq2).1; omega

/-- What the functions of a store ask of a right one. -/
theorem StoAt.pre {W : World} {lo : Nat} {A : Option Addr} {n C : Nat} {X : List ByteArray} {A' : Option Addr} {n' C' : Nat} {Y : List ByteArray} {ua : Option Addr} {un uc : Nat} {l : List UE} {ep nx : Int} (h : StoAt W lo A n C X A' n' C' Y ua un uc l) (hs : SOk X Y ep nx (l.map UE.u)) :
    Strs W A n X ∧ Strs W A' n' Y ∧ n ≤ 200 ∧ n' ≤ 200 ∧ (∀ x ∈ X, x.size ≤ 1048576) ∧ UpRow W lo (.slice ua un uc) l ∧ un = l.length ∧ un ≤ 10 ∧ (∀ e ∈ l, e.n ≤ 4800) ∧ X.length = n ∧ Y.length = n' := by
  have h1 := okD_iff.1 hs.1
  have h2 := h.now.len
  have h3 := h.sure.len
  have h4 := hs.few
  rw [List.length_map] at h4
  have h5 := h.len
  have hf := (fold_small hs.1 hs.2.2.1).2
  refine ⟨h.now.strs, h.sure.strs, by omega, by omega, fun x hx => by have := h1.2.2.1 x hx; omega, h.ups, h5, by omega, fun e he => ?_, h2, h3⟩
  have h6 := (h.ups.2.1 e he).seg.1
  have h7 := hf e.u (List.mem_map_of_mem he)
  omega

structure DSt (w W : World) (B c : Nat) (a : Option Addr) (len cap : Nat) (zs : List Int) (lo : Nat) (k : Int) (A : Option Addr) (n C : Nat) (X : List ByteArray) (A' : Option Addr) (n' C' : Nat) (Y : List ByteArray) (ep nx : Int) (ua : Option Addr) (un uc : Nat) (l : List UE) : Prop where
  box : BoxN W w.heap.size 29 [.slice A n C, .slice A' n' C', .int .i64 ep, .int .i64 nx, .slice ua un uc]
  zero : BoxN W (w.heap.size + 1) 29 [.slice none 0 0, .slice none 0 0, .int .i64 0, .int .i64 0, .slice none 0 0]
  sto : StoAt W lo A n C X A' n' C' Y ua un uc l
  cur : Cur W B c a len cap zs
  grown : w.grownBy W (some c)
  sg : SG k X Y ep nx (l.map UE.u)
  clo : c < lo
  low : lo ≤ w.heap.size

section
variable {w W W' : World} {B c : Nat} {a : Option Addr} {len cap : Nat} {zs : List Int} {lo : Nat} {k : Int} {A : Option Addr} {n C : Nat} {X : List ByteArray} {A' : Option Addr} {n' C' : Nat} {Y : List ByteArray} {ep nx : Int} {ua : Option Addr} {un uc : Nat} {l : List UE}

theorem DSt.call (h : DSt w W B c a len cap zs lo k A n C X A' n' C' Y ep nx ua un uc l) (hc : Cur W' B c a len cap zs) (hg : W.grownBy W' (some c)) : DSt w W' B c a len cap zs lo k A n C X A' n' C' Y ep nx ua un uc l := by
  have h1 := h.clo
  have h2 := h.low
  exact ⟨h.box.grown hg (fun e => by injection e with e; omega), h.zero.grown hg (fun e => by injection e with e; omega), h.sto.moved hg h.clo, hc, gtrans h.grown hg, h.sg, h.clo, h.low⟩

theorem DSt.stays (h : DSt w W B c a len cap zs lo k A n C X A' n' C' Y ep nx ua un uc l) (hb : Below W.heap.size W W') : DSt w W' B c a len cap zs lo k A n C X A' n' C' Y ep nx ua un uc l :=
  ⟨h.box.stays hb, h.zero.stays hb, h.sto.stays hb, h.cur.kept (gbelow hb none) (by simp), gtrans h.grown (gbelow hb _), h.sg, h.clo, h.low⟩

theorem DSt.new (h : DSt w W B c a len cap zs lo k A n C X A' n' C' Y ep nx ua un uc l) (o : Obj) : DSt w (W.alloc o) B c a len cap zs lo k A n C X A' n' C' Y ep nx ua un uc l := h.stays ((Below.refl _ _).alloc (Nat.le_refl _) _)

theorem DSt.more (h : DSt w W B c a len cap zs lo k A n C X A' n' C' Y ep nx ua un uc l) {k' : Int} (hk : k ≤ k') : DSt w W B c a len cap zs lo k' A n C X A' n' C' Y ep nx ua un uc l := ⟨h.box, h.zero, h.sto, h.cur, h.grown, h.sg.more hk, h.clo, h.low⟩

/-- A cell of the variable that holds the store. -/
theorem DSt.put (h : DSt w W B c a len cap zs lo k A n C X A' n' C' Y ep nx ua un uc l) {vs : List Value} {lo2 : Nat} {A2 : Option Addr} {n2 C2 : Nat} {X2 : List ByteArray} {A2' : Option Addr} {n2' C2' : Nat} {Y2 : List ByteArray} {ua2 : Option Addr} {un2 uc2 : Nat} {l2 : List UE} (hs : StoAt W lo2 A2 n2 C2 X2 A2' n2' C2' Y2 ua2 un2 uc2 l2) (hlo : lo ≤ lo2) {ep2 nx2 k2 : Int} (hsg : SG k2 X2 Y2 ep2 nx2 (l2.map UE.u)) :
    DSt w (((((W.setCell ⟨w.heap.size, 0, none⟩ (.slice A2 n2 C2)).setCell ⟨w.heap.size, 1, none⟩ (.slice A2' n2' C2')).setCell ⟨w.heap.size, 2, none⟩ (.int .i64 ep2)).setCell ⟨w.heap.size, 3, none⟩ (.int .i64 nx2)).setCell ⟨w.heap.size, 4, none⟩ (.slice ua2 un2 uc2)) B c a len cap zs lo k2 A2 n2 C2 X2 A2' n2' C2' Y2 ep2 nx2 ua2 un2 uc2 l2 := by
  have h1 := h.clo
  have h2 := h.low
  have b0 := h.box
  have b1 := b0.set 0 (.slice A2 n2 C2)
  have b2 := b1.set 1 (.slice A2' n2' C2')
  have b3 := b2.set 2 (.int .i64 ep2)
  have b4 := b3.set 3 (.int .i64 nx2)
  have b5 := b4.set 4 (.slice ua2 un2 uc2)
  refine ⟨b5, ((((h.zero.other (by omega) _).other (by omega) _).other (by omega) _).other (by omega) _).other (by omega) _, (((((hs.setBox b0 _).setBox b1 _).setBox b2 _).setBox b3 _).setBox b4 _).low hlo, ((((h.cur.put (by omega) _).put (by omega) _).put (by omega) _).put (by omega) _).put (by omega) _, gput (gput (gput (gput (gput h.grown (Nat.le_refl _) _) (Nat.le_refl _) _) (Nat.le_refl _) _) (Nat.le_refl _) _) (Nat.le_refl _) _, hsg, h1, h2⟩

end

/-- Some store that is drawn, of few epochs. -/
def DrawnS (lo : Nat) (k : Int) (v : Value) (w' : World) : Prop := ∃ X Y ep nx us, AnsS lo X Y ep nx us v w' ∧ SG k X Y ep nx us

section
variable {w W W' : World} {B c : Nat} {a : Option Addr} {len cap : Nat} {zs : List Int} {lo : Nat} {k : Int} {A : Option Addr} {n C : Nat} {X : List ByteArray} {A' : Option Addr} {n' C' : Nat} {Y : List ByteArray} {ep nx : Int} {ua : Option Addr} {un uc : Nat} {l : List UE}

/-- The store is answered. -/
theorem DSt.done (h : DSt w W B c a len cap zs lo k A n C X A' n' C' Y ep nx ua un uc l) :
    DrawnS lo k (.agg #[.slice A n C, .slice A' n' C', .int .i64 ep, .int .i64 nx, .slice ua un uc]) (((((W.setCell ⟨w.heap.size + 1, 0, none⟩ (.slice A n C)).setCell ⟨w.heap.size + 1, 1, none⟩ (.slice A' n' C')).setCell ⟨w.heap.size + 1, 2, none⟩ (.int .i64 ep)).setCell ⟨w.heap.size + 1, 3, none⟩ (.int .i64 nx)).setCell ⟨w.heap.size + 1, 4, none⟩ (.slice ua un uc)) ∧
    Cur (((((W.setCell ⟨w.heap.size + 1, 0, none⟩ (.slice A n C)).setCell ⟨w.heap.size + 1, 1, none⟩ (.slice A' n' C')).setCell ⟨w.heap.size + 1, 2, none⟩ (.int .i64 ep)).setCell ⟨w.heap.size + 1, 3, none⟩ (.int .i64 nx)).setCell ⟨w.heap.size + 1, 4, none⟩ (.slice ua un uc)) B c a len cap zs ∧
    w.grownBy (((((W.setCell ⟨w.heap.size + 1, 0, none⟩ (.slice A n C)).setCell ⟨w.heap.size + 1, 1, none⟩ (.slice A' n' C')).setCell ⟨w.heap.size + 1, 2, none⟩ (.int .i64 ep)).setCell ⟨w.heap.size + 1, 3, none⟩ (.int .i64 nx)).setCell ⟨w.heap.size + 1, 4, none⟩ (.slice ua un uc)) (some c) := by
  have h1 := h.clo
  have h2 := h.low
  have b0 := h.zero
  have b1 := b0.set 0 (.slice A n C)
  have b2 := b1.set 1 (.slice A' n' C')
  have b3 := b2.set 2 (.int .i64 ep)
  have b4 := b3.set 3 (.int .i64 nx)
  refine ⟨⟨X, Y, ep, nx, l.map UE.u, ⟨A, n, C, A', n', C', ua, un, uc, l, rfl, ((((h.sto.setBox b0 _).setBox b1 _).setBox b2 _).setBox b3 _).setBox b4 _, rfl⟩, h.sg⟩, ((((h.cur.put (by omega) _).put (by omega) _).put (by omega) _).put (by omega) _).put (by omega) _, gput (gput (gput (gput (gput h.grown (by omega) _) (by omega) _) (by omega) _) (by omega) _) (by omega) _⟩
end

end Go.Proofs.YtlkgopoicpnacaaGreatDoor

namespace Go.Proofs.YtlkgopoicpnacaaGreatDoor
open Go.RowKit
set_option linter.unusedVariables false

theorem OwnH.same {W W' : World} {base n cap : Nat} {a : Option Addr} {l : List Hd} (h : OwnH W base a n cap l) (hq : ∀ q, a.map (·.block) = some q → W'.heap[q]? = W.heap[q]?) : OwnH W' base a n cap l := ⟨own_same h.1 (fun q e => hq q (by rw [← ownBlock_sU a n cap]; exact e)), h.2⟩

/-- The rows of a server. -/
structure SvAt (W : World) (lo : Nat) (a : Option Addr) (n ca : Nat) (X : List ByteArray) (a' : Option Addr) (n' ca' : Nat) (Y : List ByteArray) (ua : Option Addr) (un uc : Nat) (l : List UE) (ha : Option Addr) (hn hc : Nat) (hs : List Hd) : Prop where
  sto : StoAt W lo a n ca X a' n' ca' Y ua un uc l
  held : OwnH W lo ha hn hc hs

/-- They lie below a bound. -/
def SvIn (a a' ua : Option Addr) (l : List UE) (ha : Option Addr) (hi : Nat) : Prop := StoIn a a' ua l hi ∧ ∀ q, ha.map (·.block) = some q → q < hi

/-- What waits lies behind the store. -/
def SvBeh (lo : Nat) (a a' ua : Option Addr) (l : List UE) (ha : Option Addr) : Prop := ∃ m, lo ≤ m ∧ StoIn a a' ua l m ∧ ∀ q, ha.map (·.block) = some q → m ≤ q

section
variable {W W' : World} {lo b : Nat} {a : Option Addr} {n ca : Nat} {X : List ByteArray} {a' : Option Addr} {n' ca' : Nat} {Y : List ByteArray} {ep nx : Int} {ua : Option Addr} {un uc : Nat} {l : List UE} {ha : Option Addr} {hn hc : Nat} {hs : List Hd}

theorem SvAt.stays (h : SvAt W lo a n ca X a' n' ca' Y ua un uc l ha hn hc hs) (hb : Below W.heap.size W W') : SvAt W' lo a n ca X a' n' ca' Y ua un uc l ha hn hc hs := ⟨h.sto.stays hb, h.held.below hb⟩

theorem SvAt.low {lo' : Nat} (h : SvAt W lo a n ca X a' n' ca' Y ua un uc l ha hn hc hs) (hb : lo' ≤ lo) : SvAt W lo' a n ca X a' n' ca' Y ua un uc l ha hn hc hs := ⟨h.sto.low hb, h.held.low hb⟩

theorem SvAt.inn (h : SvAt W lo a n ca X a' n' ca' Y ua un uc l ha hn hc hs) : SvIn a a' ua l ha W.heap.size := ⟨h.sto.inn, fun q e => (h.held.lt q e).2⟩

theorem SvAt.same (h : SvAt W lo a n ca X a' n' ca' Y ua un uc l ha hn hc hs) {hi : Nat} (hin : SvIn a a' ua l ha hi) (hq : ∀ q, lo ≤ q → q < hi → q < W.heap.size → W'.heap[q]? = W.heap[q]?) : SvAt W' lo a n ca X a' n' ca' Y ua un uc l ha hn hc hs :=
  ⟨h.sto.same hin.1 hq, h.held.same (fun q e => hq q (h.held.lt q e).1 (hin.2 q e) (h.held.lt q e).2)⟩

/-- A variable that holds a server. -/
structure VB (W : World) (lo b : Nat) (a : Option Addr) (n ca : Nat) (X : List ByteArray) (a' : Option Addr) (n' ca' : Nat) (Y : List ByteArray) (ep nx : Int) (ua : Option Addr) (un uc : Nat) (l : List UE) (ha : Option Addr) (hn hc : Nat) (hs : List Hd) : Prop where
  box : BoxN W b 32 [.slice a n ca, .slice a' n' ca', .int .i64 ep, .int .i64 nx, .slice ua un uc, .slice ha hn hc]
  sv : SvAt W lo a n ca X a' n' ca' Y ua un uc l ha hn hc hs
  inn : SvIn a a' ua l ha b
  lob : lo ≤ b

theorem VB.new (h : SvAt W lo a n ca X a' n' ca' Y ua un uc l ha hn hc hs) (hl : lo ≤ W.heap.size) : VB (W.alloc (.cells #[.slice a n ca, .slice a' n' ca', .int .i64 ep, .int .i64 nx, .slice ua un uc, .slice ha hn hc] 32)) lo W.heap.size a n ca X a' n' ca' Y ep nx ua un uc l ha hn hc hs :=
  ⟨BoxN.new _ _ _, h.stays ((Below.refl _ _).alloc (Nat.le_refl _) _), h.inn, hl⟩

theorem VB.stays (h : VB W lo b a n ca X a' n' ca' Y ep nx ua un uc l ha hn hc hs) (hb : Below W.heap.size W W') : VB W' lo b a n ca X a' n' ca' Y ep nx ua un uc l ha hn hc hs := ⟨h.box.stays hb, h.sv.stays hb, h.inn, h.lob⟩

theorem VB.kept {lo2 hi2 : Nat} (h : VB W lo b a n ca X a' n' ca' Y ep nx ua un uc l ha hn hc hs) (hw : Within W W' lo2 hi2) (ho : b < lo2 ∨ hi2 ≤ lo) : VB W' lo b a n ca X a' n' ca' Y ep nx ua un uc l ha hn hc hs :=
  ⟨(hw.block b h.box.lt (by have := h.lob; omega)).trans h.box, h.sv.same h.inn (fun q h1 h2 h3 => hw.block q h3 (by omega)), h.inn, h.lob⟩

end

/-- An answer that is a server; k: what waits lies behind the store. -/
def AnsV (k : Bool) (base : Nat) (X Y : List ByteArray) (ep nx : Int) (us : List U) (hs : List Hd) (v : Value) (w' : World) : Prop :=
  ∃ (a : Option Addr) (n ca : Nat) (a' : Option Addr) (n' ca' : Nat) (ua : Option Addr) (un uc : Nat) (l : List UE) (ha : Option Addr) (hn hc : Nat), v = .agg #[.slice a n ca, .slice a' n' ca', .int .i64 ep, .int .i64 nx, .slice ua un uc, .slice ha hn hc] ∧ SvAt w' base a n ca X a' n' ca' Y ua un uc l ha hn hc hs ∧ l.map UE.u = us ∧ (k = true → SvBeh base a a' ua l ha)

theorem AnsV.get {k : Bool} {base : Nat} {X Y : List ByteArray} {ep nx : Int} {us : List U} {hs : List Hd} {v : Value} {w' : World} (h : AnsV k base X Y ep nx us hs v w') : ∃ (a : Option Addr) (ca : Nat) (a' : Option Addr) (ca' : Nat) (ua : Option Addr) (uc : Nat) (l : List UE) (ha : Option Addr) (hc : Nat), v = .agg #[.slice a X.length ca, .slice a' Y.length ca', .int .i64 ep, .int .i64 nx, .slice ua us.length uc, .slice ha hs.length hc] ∧ SvAt w' base a X.length ca X a' Y.length ca' Y ua us.length uc l ha hs.length hc hs ∧ l.map UE.u = us ∧ (k = true → SvBeh base a a' ua l ha) := by
  obtain ⟨a, n, ca, a', n', ca', ua, un, uc, l, ha, hn, hc, rfl, hv, hm, hk⟩ := h
  have h1 : n = X.length := by have := hv.sto.now.1.1; simpa [scells] using this.symm
  have h2 : n' = Y.length := by have := hv.sto.sure.1.1; simpa [scells] using this.symm
  have h3 : un = us.length := by rw [hv.sto.len, ← hm, List.length_map]
  have h4 : hn = hs.length := hv.held.len.symm
  subst h1 h2 h3 h4
  exact ⟨a, ca, a', ca', ua, uc, l, ha, hc, rfl, hv, hm, hk⟩

/-- A row from base on, that lies above a bound, is one from that bound on. -/
theorem own_up {W : World} {base m n size : Nat} {e : TypeId} {v : Value} {xs : List Value} (h : W.ownsRow base e size v n xs) (hm : ∀ q, v.ownBlock = some q → m ≤ q) : W.ownsRow m e size v n xs := by
  refine ⟨h.1, ?_⟩
  rcases h.2 with h0 | ⟨g, cap, cur, rfl, hb, r⟩
  · exact .inl h0
  · exact .inr ⟨g, cap, cur, rfl, hm g rfl, r⟩

theorem OwnH.up {W : World} {base m n cap : Nat} {a : Option Addr} {l : List Hd} (h : OwnH W base a n cap l) (hm : ∀ q, a.map (·.block) = some q → m ≤ q) : OwnH W m a n cap l := ⟨own_up h.1 (fun q e => hm q (by rw [← ownBlock_sU a n cap]; exact e)), h.2⟩

end Go.Proofs.YtlkgopoicpnacaaGreatDoor

namespace Go.Proofs.YtlkgopoicpnacaaGreatDoor
open Go.RowKit
set_option linter.unusedVariables false

theorem own_setH {w : World} {base n size : Nat} {e : TypeId} {v : Value} {xs : List Value} (h : w.ownsRow base e size v n xs) {b : Nat} (hb : v.ownBlock ≠ some b) (k : Nat) (u : Value) : (w.setCell ⟨b, k, none⟩ u).ownsRow base e size v n xs := by
  refine ⟨h.1, ?_⟩
  rcases h.2 with h0 | ⟨g, cap, cur, rfl, hg, hc, h3, h4, h5, h6⟩
  · exact .inl h0
  · refine .inr ⟨g, cap, cur, rfl, hg, ?_, h3, h4, h5, h6⟩
    have hne : g ≠ b := fun e => hb (by simp [Value.ownBlock, e])
    exact (set_block_ne w g b k u hne).trans hc

/-- A cell of a block below the row's bound. -/
theorem OwnH.setLow {W : World} {base b i n cap : Nat} {a : Option Addr} {l : List Hd} (h : OwnH W base a n cap l) (hb : b < base) (u : Value) : OwnH (W.setCell ⟨b, i, none⟩ u) base a n cap l := by
  refine ⟨own_setH h.1 (fun e => ?_) _ _, h.2⟩
  have := (h.1.lt b e).1
  omega

end Go.Proofs.YtlkgopoicpnacaaGreatDoor

namespace Go.Proofs.YtlkgopoicpnacaaGreatDoor
open Go.RowKit
set_option linter.unusedVariables false

theorem helds_nil {w : World} {a : Option Addr} {n : Nat} {l : List Hd} (h : Helds w a n l) (ha : a = none) : n = 0 := by
  rcases h.2.2 with h0 | ⟨b, off, he, _⟩
  · exact h0
  · rw [ha] at he; cases he

theorem helds_src {w : World} {a : Option Addr} {n : Nat} {l : List Hd} (hs : Helds w a n l) : ∀ ad, a = some ad → ∀ j u, (heCells l)[j]? = some u → w.cell? (ad.add j) = some u := by
  intro ad ha j u hj
  have hl2 : j < l.length * 3 := by
    by_cases h : j < l.length * 3
    · exact h
    · rw [List.getElem?_eq_none (by rw [heCells_len]; omega)] at hj; cases hj
  rcases hs.2.2 with h | ⟨b, off, h, hlt, hc⟩
  · have := hs.1; omega
  · rw [ha] at h
    injection h with h
    subst h
    obtain ⟨i, e⟩ : ∃ i, j = i * 3 ∨ j = i * 3 + 1 ∨ j = i * 3 + 2 := ⟨j / 3, by omega⟩
    rcases e with rfl | rfl | rfl
    · have hk : i < l.length := by omega
      rw [(heCells_at l i hk).1] at hj
      rw [← hj, ← (hc i hk).1]
      by_cases hi0 : i = 0
      · subst hi0
        simp [Addr.add]
      · simp [Addr.add, show ¬ i * 3 = 0 by omega]
    · have hk : i < l.length := by omega
      rw [(heCells_at l i hk).2.1] at hj
      rw [← hj, ← (hc i hk).2.1]
      simp [Addr.add, Nat.add_assoc]
    · have hk : i < l.length := by omega
      rw [(heCells_at l i hk).2.2] at hj
      rw [← hj, ← (hc i hk).2.2]
      simp [Addr.add, Nat.add_assoc]

theorem ownH_shape {w : World} {base size n : Nat} {e : TypeId} {v : Value} {xs : List Value} (h : w.ownsRow base e size v n xs) : ∃ a cap, v = .slice a n cap := by
  rcases h.2 with ⟨rfl, rfl⟩ | ⟨g, cap, cur, rfl, _⟩
  · exact ⟨_, _, rfl⟩
  · exact ⟨_, _, rfl⟩

/-- Answers that wait, as what is appended. -/
theorem Helds.src {w : World} {a : Option Addr} {n c : Nat} {l : List Hd} (h : Helds w a n l) : Src Tryz.prog 3 30 (.slice a n c) n (heCells l) w := by
  cases a with
  | none =>
    have h0 := helds_nil h rfl
    subst h0
    have : l = [] := List.eq_nil_of_length_eq_zero h.1
    subst this
    exact Src.ofNil _ Tryz.underlying30 c
  | some ad => exact Src.ofSlice _ Tryz.underlying30 ad n c _ (by rw [heCells_len, h.1]) (helds_src h ad rfl) (heCells_one l)

end Go.Proofs.YtlkgopoicpnacaaGreatDoor

namespace Go.Proofs.YtlkgopoicpnacaaGreatDoor
open Go.RowKit
set_option linter.unusedVariables false

/-- An answer that is a drawn server. -/
def DrawnV (lo : Nat) (k : Int) (v : Value) (w' : World) : Prop := ∃ X Y ep nx us hs, AnsV false lo X Y ep nx us hs v w' ∧ SGV k X Y ep nx us hs

section
variable {W W' : World} {lo : Nat} {k : Int} {a : Option Addr} {n ca : Nat} {X : List ByteArray} {a' : Option Addr} {n' ca' : Nat} {Y : List ByteArray} {ep nx : Int} {ua : Option Addr} {un uc : Nat} {l : List UE} {ha : Option Addr} {hn hc : Nat} {hs : List Hd}

theorem SvAt.drawn (h : SvAt W lo a n ca X a' n' ca' Y ua un uc l ha hn hc hs) (hg : SGV k X Y ep nx (l.map UE.u) hs) : DrawnV lo k (.agg #[.slice a n ca, .slice a' n' ca', .int .i64 ep, .int .i64 nx, .slice ua un uc, .slice ha hn hc]) W := ⟨X, Y, ep, nx, _, hs, ⟨a, n, ca, a', n', ca', ua, un, uc, l, ha, hn, hc, rfl, h, rfl, fun h => Bool.noConfusion h⟩, hg⟩

/-- What the functions of a server ask of a drawn one. -/
theorem SvAt.pre (h : SvAt W lo a n ca X a' n' ca' Y ua un uc l ha hn hc hs) (hg : SGV k X Y ep nx (l.map UE.u) hs) :
    Strs W a n X ∧ Strs W a' n' Y ∧ n ≤ 200 ∧ n' ≤ 200 ∧ (∀ x ∈ X, x.size ≤ 1048576) ∧ UpRow W lo (.slice ua un uc) l ∧ un = l.length ∧ un ≤ 10 ∧ (∀ e ∈ l, e.n ≤ 4800) ∧ X.length = n ∧ Y.length = n' ∧ Helds W ha hn hs ∧ hn ≤ 200 := by
  obtain ⟨p1, p2, p3, p4, p5, p6, p7, p8, p9, p10, p11⟩ := h.sto.pre hg.sg.ok
  have := h.held.len
  have := hg.few
  exact ⟨p1, p2, p3, p4, p5, p6, p7, p8, p9, p10, p11, h.held.helds, by omega⟩

/-- A variable of another type is written. -/
theorem SvAt.setBox {b i : Nat} {t : TypeId} {vs : List Value} (h : SvAt W lo a n ca X a' n' ca' Y ua un uc l ha hn hc hs) (hb : BoxN W b t vs) (u : Value) (h0 : t ≠ 9 := by decide) (h1 : t ≠ 64 := by decide) (h2 : t ≠ 5 := by decide) (h3 : t ≠ 54 := by decide) : SvAt (W.setCell ⟨b, i, none⟩ u) lo a n ca X a' n' ca' Y ua un uc l ha hn hc hs :=
  ⟨h.sto.setBox hb u h0 h1 h2, own_setH h.held.1 (fun e => hb.noRow h.held.1 h3 e) _ _, h.held.2⟩

/-- Another store beside what waits. -/
theorem SvAt.sto' {hl : List Hd} (h : SvAt W lo a n ca X a' n' ca' Y ua un uc l ha hn hc hl) {d : Option Addr} {m cd : Nat} {Z : List ByteArray} {d' : Option Addr} {m' cd' : Nat} {Z' : List ByteArray} {va : Option Addr} {vn vc : Nat} {l' : List UE} (hs : StoAt W lo d m cd Z d' m' cd' Z' va vn vc l') : SvAt W lo d m cd Z d' m' cd' Z' va vn vc l' ha hn hc hl := ⟨hs, h.held⟩

/-- The store is as it was where what waits grows. -/
theorem StoAt.keptH {e : TypeId} {size base m : Nat} {v : Value} {xs : List Value} (h : StoAt W lo a n ca X a' n' ca' Y ua un uc l) (ho : W.ownsRow base e size v m xs) (hg : W.grownBy W' v.ownBlock) (h0 : 9 ≠ e := by decide) (h1 : 64 ≠ e := by decide) (h2 : 5 ≠ e := by decide) : StoAt W' lo a n ca X a' n' ca' Y ua un uc l :=
  ⟨h.now.keptR ho h0 hg, h.sure.keptR ho h0 hg, h.apart, h.ups.grown hg (fun q hq hq2 => rows_apart h.ups.1 ho h1 q hq2 hq) (fun e he q hq hq2 => rows_apart (h.ups.2.1 e he).1 ho h2 q (by rw [ownBlock_sU]; exact hq2) hq), h.len⟩

/-- One answer more waits. -/
theorem SvAt.app (h : SvAt W lo a n ca X a' n' ca' Y ua un uc l ha hn hc hs) {who st off : Int} (hd : hd64 (who, st, off)) {v : Value} (ho : W'.ownsRow lo 54 3 v (hn + 1) (heCells hs ++ [.int .i64 who, .int .i64 st, .int .i64 off])) (hg : W.grownBy W' (Value.slice ha hn hc).ownBlock) : ∃ ga gc, v = .slice ga (hn + 1) gc ∧ SvAt W' lo a n ca X a' n' ca' Y ua un uc l ga (hn + 1) gc (hs ++ [(who, st, off)]) := by
  obtain ⟨ga, gc, rfl⟩ := ownH_shape ho
  refine ⟨ga, gc, rfl, h.sto.keptH h.held.1 hg, ?_, ?_⟩
  · rw [heCells_append]; exact ho
  · intro x hx
    rcases List.mem_append.1 hx with hx | hx
    · exact h.held.2 x hx
    · rw [List.mem_singleton.1 hx]; exact hd

end

theorem SvAt.setLow {W : World} {lo b i : Nat} {a : Option Addr} {n ca : Nat} {X : List ByteArray} {a' : Option Addr} {n' ca' : Nat} {Y : List ByteArray} {ua : Option Addr} {un uc : Nat} {l : List UE} {ha : Option Addr} {hn hc : Nat} {hs : List Hd} (h : SvAt W lo a n ca X a' n' ca' Y ua un uc l ha hn hc hs) (hb : b < lo) (u : Value) : SvAt (W.setCell ⟨b, i, none⟩ u) lo a n ca X a' n' ca' Y ua un uc l ha hn hc hs := ⟨h.sto.setLow hb u, h.held.setLow hb u⟩

/-- A server is laid into the answer. -/
theorem srvDone {w W : World} {B b lo : Nat} {k : Int} {a : Option Addr} {n ca : Nat} {X : List ByteArray} {a' : Option Addr} {n' ca' : Nat} {Y : List ByteArray} {ep nx : Int} {ua : Option Addr} {un uc : Nat} {l : List UE} {ha : Option Addr} {hn hc : Nat} {hs : List Hd} {zs : List Value} (h : SvAt W lo a n ca X a' n' ca' Y ua un uc l ha hn hc hs) (hg : SGV k X Y ep nx (l.map UE.u) hs) (hb : BoxN W b 32 zs) (hB : Below B w W) (hlb : B ≤ b) (hlo : b < lo) :
    DrawnV B k (.agg #[.slice a n ca, .slice a' n' ca', .int .i64 ep, .int .i64 nx, .slice ua un uc, .slice ha hn hc]) ((((((W.setCell ⟨b, 0, none⟩ (.slice a n ca)).setCell ⟨b, 1, none⟩ (.slice a' n' ca')).setCell ⟨b, 2, none⟩ (.int .i64 ep)).setCell ⟨b, 3, none⟩ (.int .i64 nx)).setCell ⟨b, 4, none⟩ (.slice ua un uc)).setCell ⟨b, 5, none⟩ (.slice ha hn hc)) ∧ Below B w ((((((W.setCell ⟨b, 0, none⟩ (.slice a n ca)).setCell ⟨b, 1, none⟩ (.slice a' n' ca')).setCell ⟨b, 2, none⟩ (.int .i64 ep)).setCell ⟨b, 3, none⟩ (.int .i64 nx)).setCell ⟨b, 4, none⟩ (.slice ua un uc)).setCell ⟨b, 5, none⟩ (.slice ha hn hc)) :=
  ⟨SvAt.drawn (((((((h.setLow hlo _).setLow hlo _).setLow hlo _).setLow hlo _).setLow hlo _).setLow hlo _).low (by omega)) hg, (((((hB.setCell hlb _).setCell hlb _).setCell hlb _).setCell hlb _).setCell hlb _).setCell hlb _⟩

theorem DrawnV.stays {lo : Nat} {k : Int} {v : Value} {W W' : World} (h : DrawnV lo k v W) (hb : Below W.heap.size W W') : DrawnV lo k v W' := by
  obtain ⟨X, Y, ep, nx, us, hs, ⟨a, n, ca, a', n', ca', ua, un, uc, l, ha, hn, hc, rfl, hs, hm, hk⟩, hg⟩ := h
  exact ⟨X, Y, ep, nx, us, _, ⟨a, n, ca, a', n', ca', ua, un, uc, l, ha, hn, hc, rfl, hs.stays hb, hm, hk⟩, hg⟩

theorem DrawnV.get {lo : Nat} {k : Int} {v : Value} {W : World} (h : DrawnV lo k v W) : ∃ (a : Option Addr) (n ca : Nat) (X : List ByteArray) (a' : Option Addr) (n' ca' : Nat) (Y : List ByteArray) (ep nx : Int) (ua : Option Addr) (un uc : Nat) (l : List UE) (ha : Option Addr) (hn hc : Nat) (hs : List Hd), v = .agg #[.slice a n ca, .slice a' n' ca', .int .i64 ep, .int .i64 nx, .slice ua un uc, .slice ha hn hc] ∧ SvAt W lo a n ca X a' n' ca' Y ua un uc l ha hn hc hs ∧ SGV k X Y ep nx (l.map UE.u) hs := by
  obtain ⟨X, Y, ep, nx, us, hs, ⟨a, n, ca, a', n', ca', ua, un, uc, l, ha, hn, hc, rfl, h, rfl, _⟩, hg⟩ := h
  exact ⟨a, n, ca, X, a', n', ca', Y, ep, nx, ua, un, uc, l, ha, hn, hc, hs, rfl, h, hg⟩

end Go.Proofs.YtlkgopoicpnacaaGreatDoor

namespace Go.Proofs.YtlkgopoicpnacaaGreatDoor
open Go.RowKit
set_option linter.unusedVariables false

/-- The rows of a store lie above a bound. -/
def StoUp (a a' ua : Option Addr) (l : List UE) (m : Nat) : Prop := (∀ q, a.map (·.block) = some q → m ≤ q) ∧ (∀ q, a'.map (·.block) = some q → m ≤ q) ∧ (∀ q, ua.map (·.block) = some q → m ≤ q) ∧ ∀ e ∈ l, ∀ q, e.a.map (·.block) = some q → m ≤ q

/-- Of a server and a list beside it one has nothing in it; the list, if it has something, lies below the store. -/
def SvAp (lo : Nat) (a a' ua : Option Addr) (l : List UE) (ha : Option Addr) (hn : Nat) (pa : Option Addr) (pn : Nat) : Prop := pn = 0 ∨ (ha = none ∧ hn = 0 ∧ ∃ m, lo ≤ m ∧ StoUp a a' ua l m ∧ ∀ q, pa.map (·.block) = some q → q < m)

section
variable {W W' : World} {lo b : Nat} {ep nx : Int} {a : Option Addr} {n ca : Nat} {X : List ByteArray} {a' : Option Addr} {n' ca' : Nat} {Y : List ByteArray} {ua : Option Addr} {un uc : Nat} {l : List UE} {ha : Option Addr} {hn hc : Nat} {hs : List Hd} {pa : Option Addr} {pn pc : Nat} {hl : List Hd}

theorem StoAt.above (h : StoAt W lo a n ca X a' n' ca' Y ua un uc l) : StoUp a a' ua l lo :=
  ⟨fun q e => (h.now.lt q (by rw [blk_own]; exact e)).1, fun q e => (h.sure.lt q (by rw [blk_own]; exact e)).1, fun q e => (h.ups.lts.1 q (by rw [ownBlock_sU]; exact e)).1, fun x hx q e => (h.ups.lts.2 x hx q e).1⟩

theorem StoAt.up {m : Nat} (h : StoAt W lo a n ca X a' n' ca' Y ua un uc l) (hm : StoUp a a' ua l m) : StoAt W m a n ca X a' n' ca' Y ua un uc l :=
  ⟨⟨own_up h.now.1 (fun q e => hm.1 q (by rw [← ownBlock_sU a n ca]; exact e)), h.now.2⟩, ⟨own_up h.sure.1 (fun q e => hm.2.1 q (by rw [← ownBlock_sU a' n' ca']; exact e)), h.sure.2⟩, h.apart, ⟨own_up h.ups.1 (fun q e => hm.2.2.1 q (by rw [← ownBlock_sU ua un uc]; exact e)), fun e he => ⟨own_up (h.ups.2.1 e he).1 (fun q e2 => hm.2.2.2 e he q (by rw [← ownBlock_sU e.a e.n e.c]; exact e2)), (h.ups.2.1 e he).2⟩, h.ups.2.2⟩, h.len⟩

/-- A variable that holds a server, and a list beside it. -/
structure GV (W : World) (lo b : Nat) (a : Option Addr) (n ca : Nat) (X : List ByteArray) (a' : Option Addr) (n' ca' : Nat) (Y : List ByteArray) (ep nx : Int) (ua : Option Addr) (un uc : Nat) (l : List UE) (ha : Option Addr) (hn hc : Nat) (hs : List Hd) (pa : Option Addr) (pn pc : Nat) (hl : List Hd) : Prop where
  var : VB W lo b a n ca X a' n' ca' Y ep nx ua un uc l ha hn hc hs
  lst : OwnH W lo pa pn pc hl
  lin : ∀ q, pa.map (·.block) = some q → q < b

theorem GV.new (h : SvAt W lo a n ca X a' n' ca' Y ua un uc l ha hn hc hs) (h2 : OwnH W lo pa pn pc hl) (hlo : lo ≤ W.heap.size) : GV (W.alloc (.cells #[.slice a n ca, .slice a' n' ca', .int .i64 ep, .int .i64 nx, .slice ua un uc, .slice ha hn hc] 32)) lo W.heap.size a n ca X a' n' ca' Y ep nx ua un uc l ha hn hc hs pa pn pc hl :=
  ⟨VB.new h hlo, h2.below ((Below.refl _ _).alloc (Nat.le_refl _) _), fun q e => (h2.lt q e).2⟩

theorem GV.stays (h : GV W lo b a n ca X a' n' ca' Y ep nx ua un uc l ha hn hc hs pa pn pc hl) (hb : Below W.heap.size W W') : GV W' lo b a n ca X a' n' ca' Y ep nx ua un uc l ha hn hc hs pa pn pc hl := ⟨h.var.stays hb, h.lst.below hb, h.lin⟩

theorem GV.kept {lo2 hi2 : Nat} (h : GV W lo b a n ca X a' n' ca' Y ep nx ua un uc l ha hn hc hs pa pn pc hl) (hw : Within W W' lo2 hi2) (ho : b < lo2 ∨ hi2 ≤ lo) : GV W' lo b a n ca X a' n' ca' Y ep nx ua un uc l ha hn hc hs pa pn pc hl :=
  ⟨h.var.kept hw ho, h.lst.same (fun q e => hw.block q (h.lst.lt q e).2 (by have := (h.lst.lt q e).1; have := h.lin q e; omega)), h.lin⟩

end

/-- An answer that is a server and a list of what waited; k: they lie apart. -/
def AnsVL (k : Bool) (base : Nat) (X Y : List ByteArray) (ep nx : Int) (us : List U) (hs hl : List Hd) (v u : Value) (w' : World) : Prop :=
  ∃ (a : Option Addr) (n ca : Nat) (a' : Option Addr) (n' ca' : Nat) (ua : Option Addr) (un uc : Nat) (l : List UE) (ha : Option Addr) (hn hc : Nat) (pa : Option Addr) (pn pc : Nat), v = .agg #[.slice a n ca, .slice a' n' ca', .int .i64 ep, .int .i64 nx, .slice ua un uc, .slice ha hn hc] ∧ u = .slice pa pn pc ∧ SvAt w' base a n ca X a' n' ca' Y ua un uc l ha hn hc hs ∧ l.map UE.u = us ∧ OwnH w' base pa pn pc hl ∧ (k = true → SvBeh base a a' ua l ha ∧ SvAp base a a' ua l ha hn pa pn)

theorem AnsVL.get {k : Bool} {base : Nat} {X Y : List ByteArray} {ep nx : Int} {us : List U} {hs hl : List Hd} {v u : Value} {w' : World} (h : AnsVL k base X Y ep nx us hs hl v u w') : ∃ (a : Option Addr) (ca : Nat) (a' : Option Addr) (ca' : Nat) (ua : Option Addr) (uc : Nat) (l : List UE) (ha : Option Addr) (hc : Nat) (pa : Option Addr) (pc : Nat), v = .agg #[.slice a X.length ca, .slice a' Y.length ca', .int .i64 ep, .int .i64 nx, .slice ua us.length uc, .slice ha hs.length hc] ∧ u = .slice pa hl.length pc ∧ SvAt w' base a X.length ca X a' Y.length ca' Y ua us.length uc l ha hs.length hc hs ∧ l.map UE.u = us ∧ OwnH w' base pa hl.length pc hl ∧ (k = true → SvBeh base a a' ua l ha ∧ SvAp base a a' ua l ha hs.length pa hl.length) := by
  obtain ⟨a, n, ca, a', n', ca', ua, un, uc, l, ha, hn, hc, pa, pn, pc, rfl, rfl, hv, hm, hp, hk⟩ := h
  have h1 : n = X.length := by have := hv.sto.now.1.1; simpa [scells] using this.symm
  have h2 : n' = Y.length := by have := hv.sto.sure.1.1; simpa [scells] using this.symm
  have h3 : un = us.length := by rw [hv.sto.len, ← hm, List.length_map]
  have h4 : hn = hs.length := hv.held.len.symm
  have h5 : pn = hl.length := hp.len.symm
  subst h1 h2 h3 h4 h5
  exact ⟨a, ca, a', ca', ua, uc, l, ha, hc, pa, pc, rfl, rfl, hv, hm, hp, hk⟩

section
variable {W : World} {lo b : Nat} {a : Option Addr} {n ca : Nat} {X : List ByteArray} {a' : Option Addr} {n' ca' : Nat} {Y : List ByteArray} {ua : Option Addr} {un uc : Nat} {l : List UE} {ha : Option Addr} {hn hc : Nat} {hs : List Hd} {pa : Option Addr} {pn pc : Nat} {hl : List Hd}
theorem SvAt.set6 (h : SvAt W lo a n ca X a' n' ca' Y ua un uc l ha hn hc hs) (hb : b < lo) (v0 v1 v2 v3 v4 v5 : Value) : SvAt ((((((W.setCell ⟨b, 0, none⟩ v0).setCell ⟨b, 1, none⟩ v1).setCell ⟨b, 2, none⟩ v2).setCell ⟨b, 3, none⟩ v3).setCell ⟨b, 4, none⟩ v4).setCell ⟨b, 5, none⟩ v5) lo a n ca X a' n' ca' Y ua un uc l ha hn hc hs :=
  ⟨(((((h.sto.setLow hb _).setLow hb _).setLow hb _).setLow hb _).setLow hb _).setLow hb _, (((((h.held.setLow hb _).setLow hb _).setLow hb _).setLow hb _).setLow hb _).setLow hb _⟩
theorem StoAt.set6 (h : StoAt W lo a n ca X a' n' ca' Y ua un uc l) (hb : b < lo) (v0 v1 v2 v3 v4 v5 : Value) : StoAt ((((((W.setCell ⟨b, 0, none⟩ v0).setCell ⟨b, 1, none⟩ v1).setCell ⟨b, 2, none⟩ v2).setCell ⟨b, 3, none⟩ v3).setCell ⟨b, 4, none⟩ v4).setCell ⟨b, 5, none⟩ v5) lo a n ca X a' n' ca' Y ua un uc l :=
  (((((h.setLow hb _).setLow hb _).setLow hb _).setLow hb _).setLow hb _).setLow hb _
theorem OwnH.set6 (h : OwnH W lo pa pn pc hl) (hb : b < lo) (v0 v1 v2 v3 v4 v5 : Value) : OwnH ((((((W.setCell ⟨b, 0, none⟩ v0).setCell ⟨b, 1, none⟩ v1).setCell ⟨b, 2, none⟩ v2).setCell ⟨b, 3, none⟩ v3).setCell ⟨b, 4, none⟩ v4).setCell ⟨b, 5, none⟩ v5) lo pa pn pc hl :=
  (((((h.setLow hb _).setLow hb _).setLow hb _).setLow hb _).setLow hb _).setLow hb _
theorem below_set6 {B : Nat} {w : World} (h : Below B w W) (hb : B ≤ b) (v0 v1 v2 v3 v4 v5 : Value) : Below B w ((((((W.setCell ⟨b, 0, none⟩ v0).setCell ⟨b, 1, none⟩ v1).setCell ⟨b, 2, none⟩ v2).setCell ⟨b, 3, none⟩ v3).setCell ⟨b, 4, none⟩ v4).setCell ⟨b, 5, none⟩ v5) :=
  (((((h.setCell hb _).setCell hb _).setCell hb _).setCell hb _).setCell hb _).setCell hb _
theorem BoxN.set6 {t : TypeId} {x0 x1 x2 x3 x4 x5 : Value} (h : BoxN W b t [x0, x1, x2, x3, x4, x5]) (v0 v1 v2 v3 v4 v5 : Value) : BoxN ((((((W.setCell ⟨b, 0, none⟩ v0).setCell ⟨b, 1, none⟩ v1).setCell ⟨b, 2, none⟩ v2).setCell ⟨b, 3, none⟩ v3).setCell ⟨b, 4, none⟩ v4).setCell ⟨b, 5, none⟩ v5) b t [v0, v1, v2, v3, v4, v5] :=
  (((((h.set 0 v0).set 1 v1).set 2 v2).set 3 v3).set 4 v4).set 5 v5
theorem BoxN.other6 {b' : Nat} {t : TypeId} {vs : List Value} (h : BoxN W b' t vs) (hb : b' ≠ b) (v0 v1 v2 v3 v4 v5 : Value) : BoxN ((((((W.setCell ⟨b, 0, none⟩ v0).setCell ⟨b, 1, none⟩ v1).setCell ⟨b, 2, none⟩ v2).setCell ⟨b, 3, none⟩ v3).setCell ⟨b, 4, none⟩ v4).setCell ⟨b, 5, none⟩ v5) b' t vs :=
  (((((h.other hb _).other hb _).other hb _).other hb _).other hb _).other hb _
end

end Go.Proofs.YtlkgopoicpnacaaGreatDoor

namespace Go.Proofs.YtlkgopoicpnacaaGreatDoor
open Go.RowKit
set_option linter.unusedVariables false

/-- What is sure behind it. -/
noncomputable def saY (X Y : List ByteArray) (ep nx : Int) (us : List U) (hs : List Hd) : List ByteArray := if svB X Y ep nx us hs = true then syncY X Y ep nx us else Y
/-- What still waits. -/
noncomputable def saH (X Y : List ByteArray) (ep nx : Int) (us : List U) (hs : List Hd) : List Hd := if svB X Y ep nx us hs = true then [] else hs
/-- What is given out. -/
noncomputable def saL (X Y : List ByteArray) (ep nx : Int) (us : List U) (hs : List Hd) : List Hd := if svB X Y ep nx us hs = true then hs else []

theorem svB_sok {X Y : List ByteArray} {ep nx : Int} {us : List U} {hs : List Hd} (h : svB X Y ep nx us hs = true) : SOk X Y ep nx us := by
  simp only [svB, Bool.and_eq_true] at h
  simpa [decB] using h.2.2

theorem syncY_len {X Y : List ByteArray} {ep nx : Int} {us : List U} (h : SOk X Y ep nx us) : syncY X Y ep nx us = X := by simp [syncY, decB, h]

end Go.Proofs.YtlkgopoicpnacaaGreatDoor

namespace Go.Proofs.YtlkgopoicpnacaaGreatDoor
open Go.RowKit
set_option linter.unusedVariables false

/-- The cells of a row of truths. -/
def bcells (l : List Bool) : List Value := l.map Value.bool

theorem bcells_len (l : List Bool) : (bcells l).length = l.length := List.length_map ..

theorem bcells_at (l : List Bool) (i : Nat) (hi : i < l.length) : (bcells l)[i]? = some (.bool (l[i])) := by
  simp [bcells, hi]

theorem bcells_append (l r : List Bool) : bcells (l ++ r) = bcells l ++ bcells r := by simp [bcells]

theorem bcells_set (l : List Bool) (x : Bool) (k : Nat) : (bcells l).set k (.bool x) = bcells (l.set k x) := by simp [bcells, List.map_set]

theorem bcells_one (l : List Bool) : ∀ u ∈ bcells l, u.oneCell' = true := by
  intro u hu
  simp only [bcells, List.mem_map] at hu
  obtain ⟨x, _, rfl⟩ := hu
  rfl

/-- The slice (a, n) holds the truths l in the world w. -/
def Bools (w : World) (a : Option Addr) (n : Nat) (l : List Bool) : Prop :=
  l.length = n ∧ True ∧
  (n = 0 ∨ ∃ b off, a = some ⟨b, off, none⟩ ∧ b < w.heap.size ∧ ∀ i (hi : i < l.length), w.cell? ⟨b, off + i, none⟩ = some (.bool (l[i])))

theorem Bools.below {w w' : World} {a : Option Addr} {n : Nat} {l : List Bool} (h : Bools w a n l) (hb : Below w.heap.size w w') : Bools w' a n l := by
  obtain ⟨h1, h2, h3⟩ := h
  refine ⟨h1, h2, ?_⟩
  rcases h3 with h0 | ⟨b, off, ha, hlt, hc⟩
  · exact .inl h0
  · exact .inr ⟨b, off, ha, Nat.lt_of_lt_of_le hlt hb.size, fun i hi => (hb.cell (p := ⟨b, off + i, none⟩) hlt).trans (hc i hi)⟩

/-- The cell at one index. -/
theorem Bools.at {w : World} {a : Option Addr} {n : Nat} {l : List Bool} (h : Bools w a n l) {k : Nat} (hk : k < n) : ∃ b off x, a = some ⟨b, off, none⟩ ∧ b < w.heap.size ∧ l[k]? = some x ∧ w.cell? ⟨b, off + k, none⟩ = some (.bool x) := by
  obtain ⟨h1, h2, h3⟩ := h
  rcases h3 with h0 | ⟨b, off, ha, hlt, hc⟩
  · omega
  · have hk' : k < l.length := by omega
    exact ⟨b, off, l[k], ha, hlt, List.getElem?_eq_getElem hk', hc k hk'⟩

theorem Bools.cells {w : World} {a : Option Addr} {n : Nat} {l : List Bool} (h : Bools w a n l) : ∀ ad, a = some ad → ∀ j u, (bcells l)[j]? = some u → w.cell? (ad.add j) = some u := by
  intro ad ha j u hj
  have hjl : j < l.length := by
    rw [← bcells_len]
    exact (List.getElem?_eq_some_iff.1 hj).1
  rcases h.2.2 with h0 | ⟨b, off, e, hb, hc⟩
  · have := h.1
    omega
  · rw [ha] at e
    injection e with e
    subst e
    have hadd : (⟨b, off, none⟩ : Addr).add j = ⟨b, off + j, none⟩ := by unfold Addr.add; split <;> simp_all
    rw [hadd, hc j hjl, ← bcells_at l j hjl, hj]

theorem Bools.none_nil {w : World} {a : Option Addr} {n : Nat} {l : List Bool} (h : Bools w a n l) (ha : a = none) : n = 0 := by
  rcases h.2.2 with h0 | ⟨b, off, e, _⟩
  · exact h0
  · rw [ha] at e
    cases e

theorem Bools.nil (w : World) (a : Option Addr) : Bools w a 0 [] := ⟨rfl, trivial, .inl rfl⟩

/-- A slice value that owns these truths, in a block from base on. -/
def OwnBo (w : World) (base : Nat) (v : Value) (n : Nat) (l : List Bool) : Prop := w.ownsRow base 4 1 v n (bcells l)∧ True

theorem OwnBo.len {w : World} {base n : Nat} {v : Value} {l : List Bool} (h : OwnBo w base v n l) : l.length = n := by
  have := h.1.1
  rw [bcells_len] at this
  omega

theorem OwnBo.shape {w : World} {base n : Nat} {v : Value} {l : List Bool} (h : OwnBo w base v n l) : ∃ a cap, v = .slice a n cap := by
  rcases h.1.2 with ⟨rfl, rfl⟩ | ⟨g, cap, cur, rfl, _⟩
  · exact ⟨_, _, rfl⟩
  · exact ⟨_, _, rfl⟩

theorem OwnBo.strs {w : World} {base n cap : Nat} {a : Option Addr} {l : List Bool} (h : OwnBo w base (.slice a n cap) n l) : Bools w a n l := by
  have hl := h.len
  refine ⟨hl, h.2, ?_⟩
  rcases h.1.2 with ⟨_, hn⟩ | ⟨g, cap', cur, he, hb, hg, hn, hm, hc, ht⟩
  · exact .inl hn
  · injection he with e1 e2 e3
    subst e1
    refine .inr ⟨g, 0, rfl, (Array.getElem?_eq_some_iff.1 hg).1, fun i hi => ?_⟩
    have hi' : i < n := by omega
    rw [Nat.zero_add, cell_of_row w g i cur _ (0, 0) hg, ← bcells_at l i hi, ← ht, List.getElem?_take, if_pos (by omega), Array.getElem?_toList]

theorem OwnBo.below {w w' : World} {base n : Nat} {v : Value} {l : List Bool} (h : OwnBo w base v n l) (hb : Below w.heap.size w w') : OwnBo w' base v n l := by
  refine ⟨⟨h.1.1, ?_⟩, h.2⟩
  rcases h.1.2 with h0 | ⟨g, cap, cur, he, hg, hh, r⟩
  · exact .inl h0
  · exact .inr ⟨g, cap, cur, he, hg, (hb.block g (Array.getElem?_eq_some_iff.1 hh).1).trans hh, r⟩

theorem OwnBo.grown {w w' : World} {base n : Nat} {v : Value} {l : List Bool} {r : Option Nat} (h : OwnBo w base v n l) (hg : w.grownBy w' r) (hr : ∀ q, r = some q → ∀ p m c, v = .slice (some p) m c → p.block ≠ q) : OwnBo w' base v n l := by
  refine ⟨⟨h.1.1, ?_⟩, h.2⟩
  rcases h.1.2 with h0 | ⟨g, cap, cur, he, hgb, hh, rest⟩
  · exact .inl h0
  · refine .inr ⟨g, cap, cur, he, hgb, (hg.block g (Array.getElem?_eq_some_iff.1 hh).1 ?_).trans hh, rest⟩
    intro e
    exact hr g e.symm _ _ _ he rfl

theorem info_bool : (Tryz.prog.info? 4).map (fun i => (i.zero, i.size, i.bytes)) = some (some (.bool false), 1, 1) := by kernel_rfl

/-- A row that is copied up to k. -/
def browTo (l : List Bool) (len k : Nat) : List Bool := l.take k ++ List.replicate (len - k) false

theorem browTo_step (l : List Bool) (len k : Nat) (x : Bool) (h : l[k]? = some x) (hk : k < len) : (browTo l len k).set k x = browTo l len (k + 1) := by
  have hl : k < l.length := (List.getElem?_eq_some_iff.1 h).1
  have ht : (l.take k).length = k := by simp; omega
  rw [browTo, browTo, List.set_append_right k _ (by omega), ht, Nat.sub_self, List.take_add_one, h, show len - k = (len - (k + 1)) + 1 by omega, List.replicate_succ]
  simp

theorem browTo_len (l : List Bool) (len k : Nat) (h : l.length = len) (hk : k ≤ len) : (browTo l len k).length = len := by
  simp [browTo]; omega

end Go.Proofs.YtlkgopoicpnacaaGreatDoor

namespace Go.Proofs.YtlkgopoicpnacaaGreatDoor
open Go.RowKit
set_option linter.unusedVariables false

structure CA where
  X : List ByteArray
  Y : List ByteArray
  ep : Int
  nx : Int
  us : List U
  hs : List Hd
  ok : Bool

/-- The server behind a crash. -/
noncomputable def crA (X Y : List ByteArray) (ep nx : Int) (us : List U) (hs : List Hd) (ks : List Bool) : CA :=
  if svB X Y ep nx us hs = true ∧ (openA (fallX X Y ks) (fallY X Y ks)).ok = true then ⟨(openA (fallX X Y ks) (fallY X Y ks)).X, (openA (fallX X Y ks) (fallY X Y ks)).Y, (openA (fallX X Y ks) (fallY X Y ks)).ep, (openA (fallX X Y ks) (fallY X Y ks)).nx, (openA (fallX X Y ks) (fallY X Y ks)).us, [], true⟩ else ⟨X, Y, ep, nx, us, hs, false⟩

theorem fallY_len (X Y : List ByteArray) (ks : List Bool) (m : Nat) (h1 : X.length ≤ m) (h2 : Y.length ≤ m) : (fallY X Y ks).length ≤ m := by
  rw [fallY]
  split
  · rw [fallL_len]; exact h1
  · exact h2

end Go.Proofs.YtlkgopoicpnacaaGreatDoor

namespace Go.Proofs.YtlkgopoicpnacaaGreatDoor
open Go.RowKit
set_option linter.unusedVariables false

theorem bl_irrefl : ∀ l : List UInt8, Op.bytesLess l l = false
  | [] => by simp [Op.bytesLess]
  | x :: l => by simp [Op.bytesLess, bl_irrefl l]

theorem bl_trans : ∀ {a b c : List UInt8}, Op.bytesLess a b = true → Op.bytesLess b c = true → Op.bytesLess a c = true
  | [], [], c, h, _ => by simp [Op.bytesLess] at h
  | [], y :: b, [], _, h => by simp [Op.bytesLess] at h
  | [], y :: b, z :: c, _, _ => by simp [Op.bytesLess]
  | x :: a, [], c, h, _ => by simp [Op.bytesLess] at h
  | x :: a, y :: b, [], _, h => by simp [Op.bytesLess] at h
  | x :: a, y :: b, z :: c, h1, h2 => by
    simp only [Op.bytesLess, Bool.or_eq_true, Bool.and_eq_true, decide_eq_true_eq, beq_iff_eq] at h1 h2 ⊢
    rcases h1 with h1 | ⟨rfl, h1⟩
    · rcases h2 with h2 | ⟨rfl, h2⟩
      · exact .inl (UInt8.lt_trans h1 h2)
      · exact .inl h1
    · rcases h2 with h2 | ⟨rfl, h2⟩
      · exact .inl h2
      · exact .inr ⟨rfl, bl_trans h1 h2⟩

theorem bl_tri : ∀ a b : List UInt8, Op.bytesLess a b = true ∨ a = b ∨ Op.bytesLess b a = true
  | [], [] => .inr (.inl rfl)
  | [], y :: b => .inl (by simp [Op.bytesLess])
  | x :: a, [] => .inr (.inr (by simp [Op.bytesLess]))
  | x :: a, y :: b => by
    simp only [Op.bytesLess, Bool.or_eq_true, Bool.and_eq_true, decide_eq_true_eq, beq_iff_eq, List.cons.injEq]
    by_cases h1 : x < y
    · exact .inl (.inl h1)
    · by_cases h2 : y < x
      · exact .inr (.inr (.inl h2))
      · have e : x = y := UInt8.le_antisymm (UInt8.not_lt.1 h2) (UInt8.not_lt.1 h1)
        subst e
        rcases bl_tri a b with h | h | h
        · exact .inl (.inr ⟨rfl, h⟩)
        · exact .inr (.inl ⟨rfl, h⟩)
        · exact .inr (.inr (.inr ⟨rfl, h⟩))

/-- A name ahead of another. -/
def ltS (x y : ByteArray) : Bool := Op.bytesLess x.toList y.toList

theorem toList_inj {s t : ByteArray} (h : s.toList = t.toList) : s = t := by
  rw [Lib.toList_data, Lib.toList_data] at h
  cases s
  cases t
  exact congrArg ByteArray.mk (Array.toList_inj.1 h)

theorem ltS_irrefl (x : ByteArray) : ltS x x = false := bl_irrefl _
theorem ltS_trans {x y z : ByteArray} (h1 : ltS x y = true) (h2 : ltS y z = true) : ltS x z = true := bl_trans h1 h2
theorem ltS_tri (x y : ByteArray) : ltS x y = true ∨ x = y ∨ ltS y x = true := by
  rcases bl_tri x.toList y.toList with h | h | h
  · exact .inl h
  · exact .inr (.inl (toList_inj h))
  · exact .inr (.inr h)
theorem ltS_asym {x y : ByteArray} (h : ltS x y = true) : ltS y x = false := by
  cases h2 : ltS y x with
  | false => rfl
  | true => have := ltS_trans h h2; rw [ltS_irrefl] at this; cases this

theorem gtS_iff {x y : ByteArray} : gtS x y = true ↔ ltS y x = true := by
  constructor
  · intro h
    rcases ltS_tri x y with h1 | rfl | h1
    · simp [gtS, show Op.bytesLess x.toList y.toList = true from h1] at h
    · simp [gtS] at h
    · exact h1
  · intro h
    have h1 : Op.bytesLess x.toList y.toList = false := ltS_asym h
    have h2 : x ≠ y := fun e => by subst e; rw [ltS_irrefl] at h; cases h
    have h3 : (x.toList == y.toList) = false := by
      rw [beq_eq_false_iff_ne]
      exact fun e => h2 (toList_inj e)
    simp [gtS, h1, h3]

/-- Uploads rise by their names. -/
def Asc (l : List U) : Prop := l.Pairwise fun u v => ltS u.id v.id = true

theorem asc_ne {l : List U} (h : Asc l) {i j : Nat} (hi : i < l.length) (hj : j < l.length) (hij : i < j) : (l[i]).id ≠ (l[j]).id := fun e => by
  have := (List.pairwise_iff_getElem.1 h) i j hi hj hij
  rw [e, ltS_irrefl] at this
  cases this

/-- How many of the first ones are ahead of a name. -/
def lessU (l : List U) (id : ByteArray) : Nat := match l with
  | [] => 0
  | u :: l => if ltS u.id id = true then lessU l id + 1 else 0

theorem lessU_le (id : ByteArray) : ∀ l : List U, lessU l id ≤ l.length
  | [] => Nat.le_refl _
  | u :: l => by
    rw [lessU]
    split
    · have := lessU_le id l; simp only [List.length_cons]; omega
    · exact Nat.zero_le _

theorem lessU_at {id : ByteArray} : ∀ {l : List U} {k : Nat}, k ≤ l.length → (∀ j (hj : j < l.length), j < k → ltS (l[j]).id id = true) → (∀ (hk : k < l.length), ltS (l[k]).id id = false) → lessU l id = k
  | [], k, hk, _, _ => by simp at hk; rw [hk]; rfl
  | u :: l, 0, _, _, h => by rw [lessU, if_neg (by rw [show ltS u.id id = false from h (by simp)]; simp)]
  | u :: l, k + 1, hk, h1, h2 => by
    rw [lessU, if_pos (show ltS u.id id = true from h1 0 (by simp) (by omega))]
    rw [lessU_at (k := k) (by simpa using hk) (fun j hj hjk => h1 (j + 1) (by simpa using hj) (by omega)) (fun hk2 => h2 (by simpa using hk2))]

/-- In uploads that rise one is put where the program puts it. -/
theorem ins_less {l : List U} {id : ByteArray} (ha : Asc l) (hn : atU l id = none) : insK l id l.length = lessU l id := by
  have hne : ∀ k (hk : k < l.length), (l[k]).id ≠ id := by
    intro k hk
    rw [atU, List.findIdx?_eq_none_iff] at hn
    simpa using hn (l[k]) (List.getElem_mem hk)
  have key : ∀ k, k ≤ l.length → (∀ j (hj : j < l.length), k ≤ j → ltS id (l[j]).id = true) → lessU l id = insK l id k := by
    intro k
    induction k with
    | zero =>
      intro _ h
      exact lessU_at (Nat.zero_le _) (fun j _ hj => absurd hj (Nat.not_lt_zero _)) (fun hk => ltS_asym (h 0 hk (Nat.le_refl _)))
    | succ k ih =>
      intro hk h
      have hkl : k < l.length := hk
      by_cases hg : gtS (l[k]).id id = true
      · rw [insK_down (List.getElem?_eq_getElem hkl) hg]
        refine ih (by omega) (fun j hj hkj => ?_)
        by_cases e : j = k
        · subst e; exact gtS_iff.1 hg
        · exact h j hj (by omega)
      · rw [insK_stop (List.getElem?_eq_getElem hkl) hg]
        have hlt : ltS (l[k]).id id = true := by
          rcases ltS_tri (l[k]).id id with h1 | h1 | h1
          · exact h1
          · exact absurd h1 (hne k hkl)
          · exact absurd (gtS_iff.2 h1) hg
        refine lessU_at hk (fun j hj hjk => ?_) (fun hk2 => ltS_asym (h (k + 1) hk2 (Nat.le_refl _)))
        by_cases e : j = k
        · subst e; exact hlt
        · exact ltS_trans ((List.pairwise_iff_getElem.1 ha) j k hj hkl (by omega)) hlt
  exact (key l.length (Nat.le_refl _) (fun j hj hlj => by omega)).symm

theorem less_take {l : List U} {id : ByteArray} : ∀ j (hj : j < l.length), j < lessU l id → ltS (l[j]).id id = true := by
  induction l with
  | nil => intro j hj; simp at hj
  | cons u l ih =>
    intro j hj hlt
    rw [lessU] at hlt
    split at hlt
    · rename_i h
      cases j with
      | zero => exact h
      | succ j => exact ih j (by simpa using hj) (by omega)
    · omega

theorem less_drop {l : List U} {id : ByteArray} (ha : Asc l) (hn : atU l id = none) : ∀ j (hj : j < l.length), lessU l id ≤ j → ltS id (l[j]).id = true := by
  have hne : ∀ k (hk : k < l.length), (l[k]).id ≠ id := by
    intro k hk
    rw [atU, List.findIdx?_eq_none_iff] at hn
    simpa using hn (l[k]) (List.getElem_mem hk)
  clear hn
  induction l with
  | nil => intro j hj; simp at hj
  | cons u l ih =>
    intro j hj hlt
    rw [lessU] at hlt
    have hal : Asc l := (List.pairwise_cons.1 ha).2
    split at hlt
    · cases j with
      | zero => omega
      | succ j => exact ih hal (fun k hk => hne (k + 1) (by simpa using hk)) j (by simpa using hj) (by omega)
    · rename_i h
      have h0 : ltS id u.id = true := by
        rcases ltS_tri u.id id with h1 | h1 | h1
        · exact absurd h1 h
        · exact absurd h1 (hne 0 (by simp))
        · exact h1
      cases j with
      | zero => exact h0
      | succ j =>
        have := (List.pairwise_cons.1 ha).1 (l[j]'(by simpa using hj)) (List.getElem_mem _)
        exact ltS_trans h0 this

/-- What is kept where all of a name go. -/
def keptU (l : List U) (id : ByteArray) : List U := l.filter fun u => !decide (u.id = id)

theorem erase_kept {l : List U} {id : ByteArray} {k : Nat} (ha : Asc l) (hk : atU l id = some k) : keptU l id = l.eraseIdx k := by
  obtain ⟨hkl, hid⟩ := atU_is hk
  have h1 : l = l.take k ++ l[k] :: l.drop (k + 1) := by rw [← List.drop_eq_getElem_cons hkl, List.take_append_drop]
  have ht : (l.take k).filter (fun u => !decide (u.id = id)) = l.take k := by
    rw [List.filter_eq_self]
    intro u hu
    obtain ⟨j, hj, rfl⟩ := List.mem_iff_getElem.1 hu
    have hjk : j < k := by simp at hj; omega
    have := asc_ne ha (show j < l.length by omega) hkl hjk
    rw [hid] at this
    simpa using this
  have hd : (l.drop (k + 1)).filter (fun u => !decide (u.id = id)) = l.drop (k + 1) := by
    rw [List.filter_eq_self]
    intro u hu
    obtain ⟨j, hj, rfl⟩ := List.mem_iff_getElem.1 hu
    have hjl : k + 1 + j < l.length := by simp at hj; omega
    have := asc_ne ha hkl hjl (by omega)
    rw [hid] at this
    simpa using Ne.symm this
  rw [List.eraseIdx_eq_take_drop_succ, keptU]
  conv => lhs; rw [h1]
  rw [List.filter_append, List.filter_cons, ht, hd]
  simp [hid]

theorem makeU_less {l : List U} {u : U} (ha : Asc l) (hn : atU l u.id = none) : makeU l u = l.take (lessU l u.id) ++ u :: l.drop (lessU l u.id) := by rw [makeU, ins_less ha hn]

theorem asc_set {l : List U} {k : Nat} {u v : U} (ha : Asc l) (hu : l[k]? = some u) (he : v.id = u.id) : Asc (l.set k v) := by
  obtain ⟨hkl, hke⟩ := List.getElem?_eq_some_iff.1 hu
  rw [Asc, List.pairwise_iff_getElem]
  intro i j hi hj hij
  have hil : i < l.length := by simpa using hi
  have hjl : j < l.length := by simpa using hj
  have hid : ∀ m (hm : m < l.length), ((l.set k v)[m]'(by simpa using hm)).id = (l[m]).id := by
    intro m hm
    rw [List.getElem_set]
    split
    · rename_i e; subst e; rw [he, hke]
    · rfl
  rw [hid i hil, hid j hjl]
  exact (List.pairwise_iff_getElem.1 ha) i j hil hjl hij

theorem oneU_asc {l l' : List U} {r : R} (ha : Asc l) (h : oneU l r = some l') : Asc l' := by
  rw [oneU] at h
  split at h
  · split at h
    · rename_i hc
      injection h with h
      subst h
      have ha2 := ha
      rw [Asc, List.pairwise_iff_getElem] at ha2
      rw [makeU_less ha hc.1, Asc, List.pairwise_append]
      dsimp only
      have hle := lessU_le r.id l
      refine ⟨List.Pairwise.sublist (List.take_sublist _ _) ha, List.pairwise_cons.2 ⟨?_, List.Pairwise.sublist (List.drop_sublist _ _) ha⟩, ?_⟩
      · intro v hv
        obtain ⟨j, hj, rfl⟩ := List.mem_iff_getElem.1 hv
        rw [List.getElem_drop]
        rw [List.length_drop] at hj
        exact less_drop ha hc.1 _ (by omega) (by omega)
      · intro v hv x hx
        obtain ⟨j, hj, rfl⟩ := List.mem_iff_getElem.1 hv
        rw [List.getElem_take]
        rw [List.length_take] at hj
        have hjl : j < lessU l r.id := by omega
        have hjn : j < l.length := by omega
        rcases List.mem_cons.1 hx with rfl | hx
        · exact less_take j hjn hjl
        · obtain ⟨i, hi, rfl⟩ := List.mem_iff_getElem.1 hx
          rw [List.getElem_drop]
          rw [List.length_drop] at hi
          exact ha2 _ _ hjn (by omega) (by omega)
    · cases h
  · split at h
    · cases h
    · split at h
      · cases h
      · rename_i k _ x hx
        split at h
        · split at h
          · cases h
          · injection h with h
            subst h
            exact asc_set ha hx rfl
        · split at h
          · split at h
            · cases h
            · injection h with h
              subst h
              exact asc_set ha hx rfl
          · split at h
            · injection h with h
              subst h
              exact List.Pairwise.sublist (List.eraseIdx_sublist ..) ha
            · cases h

theorem foldU_asc {rs : List R} {l : List U} (h : foldU rs = some l) : Asc l := by
  have key : ∀ (rs : List R) (a b : List U), Asc a → rs.foldlM oneU a = some b → Asc b := by
    intro rs
    induction rs with
    | nil => intro a b ha h; simp at h; subst h; exact ha
    | cons r rs ih =>
      intro a b ha h
      rw [List.foldlM_cons] at h
      cases ho : oneU a r with
      | none => rw [ho] at h; cases h
      | some c => rw [ho] at h; exact ih c b (oneU_asc ha ho) h
  exact key rs [] l List.Pairwise.nil h

end Go.Proofs.YtlkgopoicpnacaaGreatDoor
