/- What the specification's l15Does does to a drawn store: a drawn store again, and an answer that is right. A text that is drawn: one of a list. For codes of at most 2^40 bytes. A draw of one of so many. What the specification's l11Id, l11Most, ReqOk and RespOk answer. -/
import Derived.Test.YtlkgopoicpnacaaGreatDoorM20
import Derived.Test.YtlkgopoicpnacaaGreatDoorM18
import Derived.Test.YtlkgopoicpnacaaGreatDoorM22
import Derived.Test.YtlkgopoicpnacaaGreatDoorM23
import Derived.Test.YtlkgopoicpnacaaGreatDoorM24
import Derived.Test.YtlkgopoicpnacaaGreatDoorM24
import Derived.Deep.CutBlock
import Derived.Deep.RegionHeld3
import Derived.Test.YtlkgopoicpnacaaGreatDoorM17
import Derived.Test.YtlkgopoicpnacaaGreatDoorM03
import Derived.Test.YtlkgopoicpnacaaGreatDoorM07
import Derived.Test.YtlkgopoicpnacaaGreatDoorM12
import Derived.Test.YtlkgopoicpnacaaGreatDoorM04
import Derived.Deep.QuietTactic
namespace Go.Proofs.YtlkgopoicpnacaaGreatDoor
open Go.RowKit
set_option linter.unusedVariables false

theorem WAns.drawn {base : Nat} {k : Int} {Y : List ByteArray} {ep : Int} {A : WA} {e : Ending} {w' : World} (h : WAns base Y ep A e w') (hs : SG k A.X Y ep A.nx A.us) : ∃ v c, e = .returned (.tuple #[v, .int .i64 c]) ∧ DrawnS base k v w' ∧ c = A.c := by
  obtain ⟨v, rfl, hv⟩ := h
  exact ⟨v, _, rfl, ⟨_, _, _, _, _, hv, hs⟩, rfl⟩

theorem DrawnS.stays {lo : Nat} {k : Int} {v : Value} {W W' : World} (h : DrawnS lo k v W) (hb : Below W.heap.size W W') : DrawnS lo k v W' := by
  obtain ⟨X, Y, ep, nx, us, ⟨a, n, ca, a', n', ca', ua, un, uc, l, rfl, hs, hm⟩, hg⟩ := h
  exact ⟨X, Y, ep, nx, us, ⟨a, n, ca, a', n', ca', ua, un, uc, l, rfl, hs.stays hb, hm⟩, hg⟩

/-- The variables of l15Does. -/
structure DoV (w W : World) (lo : Nat) (k : Int) (b4 b5 : Nat) (a : Option Addr) (n ca : Nat) (X : List ByteArray) (a' : Option Addr) (n' ca' : Nat) (Y : List ByteArray) (ep nx : Int) (ua : Option Addr) (un uc : Nat) (l : List UE) (op : Int) (id : ByteArray) (rn st off : Int) (d : Option Addr) (m cd : Nat) (Z : List ByteArray) (d' : Option Addr) (m' cd' : Nat) (Z' : List ByteArray) (ep' mx : Int) (va : Option Addr) (vn vc : Nat) (l' : List UE) : Prop where
  q0 : BoxN W w.heap.size 29 [.slice a n ca, .slice a' n' ca', .int .i64 ep, .int .i64 nx, .slice ua un uc]
  q1 : BoxN W (w.heap.size + 1) 74 [.int .i64 op, .string id, .int .i64 rn]
  q2 : BoxN W (w.heap.size + 2) 29 [.slice none 0 0, .slice none 0 0, .int .i64 0, .int .i64 0, .slice none 0 0]
  q3 : BoxN W (w.heap.size + 3) 52 [.int .i64 0, .int .i64 0]
  q4 : BoxN W b4 52 [.int .i64 st, .int .i64 off]
  q5 : BoxN W b5 29 [.slice d m cd, .slice d' m' cd', .int .i64 ep', .int .i64 mx, .slice va vn vc]
  sto : StoAt W lo a n ca X a' n' ca' Y ua un uc l
  sto' : StoAt W lo d m cd Z d' m' cd' Z' va vn vc l'
  sg : SG k X Y ep nx (l.map UE.u)
  sg' : SG k Z Z' ep' mx (l'.map UE.u)
  below : Below w.heap.size w W
  l4 : w.heap.size + 3 < b4
  l5 : b4 < b5
  low : lo ≤ w.heap.size

section
variable {w W W' : World} {lo : Nat} {k : Int} {b4 b5 : Nat} {a : Option Addr} {n ca : Nat} {X : List ByteArray} {a' : Option Addr} {n' ca' : Nat} {Y : List ByteArray} {ep nx : Int} {ua : Option Addr} {un uc : Nat} {l : List UE} {op : Int} {id : ByteArray} {rn st off : Int} {d : Option Addr} {m cd : Nat} {Z : List ByteArray} {d' : Option Addr} {m' cd' : Nat} {Z' : List ByteArray} {ep' mx : Int} {va : Option Addr} {vn vc : Nat} {l' : List UE}

theorem DoV.stays (h : DoV w W lo k b4 b5 a n ca X a' n' ca' Y ep nx ua un uc l op id rn st off d m cd Z d' m' cd' Z' ep' mx va vn vc l') (hb : Below W.heap.size W W') : DoV w W' lo k b4 b5 a n ca X a' n' ca' Y ep nx ua un uc l op id rn st off d m cd Z d' m' cd' Z' ep' mx va vn vc l' :=
  ⟨h.q0.stays hb, h.q1.stays hb, h.q2.stays hb, h.q3.stays hb, h.q4.stays hb, h.q5.stays hb, h.sto.stays hb, h.sto'.stays hb, h.sg, h.sg', h.below.trans (hb.mono h.below.size), h.l4, h.l5, h.low⟩

/-- What was answered is kept as what comes next. -/
theorem DoV.next {e m0 e0 : Option Addr} {e1 e2 e3 e4 e5 e6 : Nat} {E E' : List ByteArray} {e7 e8 : Int} {L : List UE} (h : DoV w W lo k b4 b5 a n ca X a' n' ca' Y ep nx ua un uc l op id rn st off e e1 e2 E m0 e3 e4 E' e7 e8 e0 e5 e6 L) (hs : StoAt W lo d m cd Z d' m' cd' Z' va vn vc l') (hg : SG k Z Z' ep' mx (l'.map UE.u)) :
    DoV w (((((W.setCell ⟨b5, 0, none⟩ (.slice d m cd)).setCell ⟨b5, 1, none⟩ (.slice d' m' cd')).setCell ⟨b5, 2, none⟩ (.int .i64 ep')).setCell ⟨b5, 3, none⟩ (.int .i64 mx)).setCell ⟨b5, 4, none⟩ (.slice va vn vc)) lo k b4 b5 a n ca X a' n' ca' Y ep nx ua un uc l op id rn st off d m cd Z d' m' cd' Z' ep' mx va vn vc l' := by
  have h4 := h.l4
  have h5 := h.l5
  have b0 := h.q5
  have b1 := b0.set 0 (.slice d m cd)
  have b2 := b1.set 1 (.slice d' m' cd')
  have b3 := b2.set 2 (.int .i64 ep')
  have b9 := b3.set 3 (.int .i64 mx)
  refine ⟨(((((h.q0.other (by omega) _).other (by omega) _).other (by omega) _).other (by omega) _).other (by omega) _), (((((h.q1.other (by omega) _).other (by omega) _).other (by omega) _).other (by omega) _).other (by omega) _), (((((h.q2.other (by omega) _).other (by omega) _).other (by omega) _).other (by omega) _).other (by omega) _), (((((h.q3.other (by omega) _).other (by omega) _).other (by omega) _).other (by omega) _).other (by omega) _), (((((h.q4.other (by omega) _).other (by omega) _).other (by omega) _).other (by omega) _).other (by omega) _), b9.set 4 (.slice va vn vc), ((((h.sto.setBox b0 _).setBox b1 _).setBox b2 _).setBox b3 _).setBox b9 _, ((((hs.setBox b0 _).setBox b1 _).setBox b2 _).setBox b3 _).setBox b9 _, h.sg, hg, (((((h.below.setCell (by dsimp only; omega) _).setCell (by dsimp only; omega) _).setCell (by dsimp only; omega) _).setCell (by dsimp only; omega) _).setCell (by dsimp only; omega) _), h4, h5, h.low⟩

/-- The answer to what was done is kept. -/
theorem DoV.good (h : DoV w W lo k b4 b5 a n ca X a' n' ca' Y ep nx ua un uc l op id rn st off d m cd Z d' m' cd' Z' ep' mx va vn vc l') (s2 o2 : Int) :
    DoV w ((W.setCell ⟨b4, 0, none⟩ (.int .i64 s2)).setCell ⟨b4, 1, none⟩ (.int .i64 o2)) lo k b4 b5 a n ca X a' n' ca' Y ep nx ua un uc l op id rn s2 o2 d m cd Z d' m' cd' Z' ep' mx va vn vc l' := by
  have h4 := h.l4
  have h5 := h.l5
  have b0 := h.q4
  have b1 := b0.set 0 (.int .i64 s2)
  exact ⟨(h.q0.other (by omega) _).other (by omega) _, (h.q1.other (by omega) _).other (by omega) _, (h.q2.other (by omega) _).other (by omega) _, (h.q3.other (by omega) _).other (by omega) _, b1.set 1 (.int .i64 o2), (h.q5.other (by omega) _).other (by omega) _, (h.sto.setBox b0 _).setBox b1 _, (h.sto'.setBox b0 _).setBox b1 _, h.sg, h.sg', (h.below.setCell (by dsimp only; omega) _).setCell (by dsimp only; omega) _, h4, h5, h.low⟩

theorem DoV.good1 (h : DoV w W lo k b4 b5 a n ca X a' n' ca' Y ep nx ua un uc l op id rn st off d m cd Z d' m' cd' Z' ep' mx va vn vc l') (s2 : Int) :
    DoV w (W.setCell ⟨b4, 0, none⟩ (.int .i64 s2)) lo k b4 b5 a n ca X a' n' ca' Y ep nx ua un uc l op id rn s2 off d m cd Z d' m' cd' Z' ep' mx va vn vc l' := by
  have h4 := h.l4
  have h5 := h.l5
  have b0 := h.q4
  exact ⟨h.q0.other (by omega) _, h.q1.other (by omega) _, h.q2.other (by omega) _, h.q3.other (by omega) _, b0.set 0 (.int .i64 s2), h.q5.other (by omega) _, h.sto.setBox b0 _, h.sto'.setBox b0 _, h.sg, h.sg', h.below.setCell (by dsimp only; omega) _, h4, h5, h.low⟩

/-- A store is answered, and what belongs to it. -/
theorem DoV.done (h : DoV w W lo k b4 b5 a n ca X a' n' ca' Y ep nx ua un uc l op id rn st off d m cd Z d' m' cd' Z' ep' mx va vn vc l') (s2 o2 : Int) :
    DrawnS lo k (.agg #[.slice d m cd, .slice d' m' cd', .int .i64 ep', .int .i64 mx, .slice va vn vc]) (((((((W.setCell ⟨w.heap.size + 2, 0, none⟩ (.slice d m cd)).setCell ⟨w.heap.size + 2, 1, none⟩ (.slice d' m' cd')).setCell ⟨w.heap.size + 2, 2, none⟩ (.int .i64 ep')).setCell ⟨w.heap.size + 2, 3, none⟩ (.int .i64 mx)).setCell ⟨w.heap.size + 2, 4, none⟩ (.slice va vn vc)).setCell ⟨w.heap.size + 3, 0, none⟩ (.int .i64 s2)).setCell ⟨w.heap.size + 3, 1, none⟩ (.int .i64 o2)) ∧ Below w.heap.size w (((((((W.setCell ⟨w.heap.size + 2, 0, none⟩ (.slice d m cd)).setCell ⟨w.heap.size + 2, 1, none⟩ (.slice d' m' cd')).setCell ⟨w.heap.size + 2, 2, none⟩ (.int .i64 ep')).setCell ⟨w.heap.size + 2, 3, none⟩ (.int .i64 mx)).setCell ⟨w.heap.size + 2, 4, none⟩ (.slice va vn vc)).setCell ⟨w.heap.size + 3, 0, none⟩ (.int .i64 s2)).setCell ⟨w.heap.size + 3, 1, none⟩ (.int .i64 o2)) := by
  have b0 := h.q2
  have b1 := b0.set 0 (.slice d m cd)
  have b2 := b1.set 1 (.slice d' m' cd')
  have b3 := b2.set 2 (.int .i64 ep')
  have b9 := b3.set 3 (.int .i64 mx)
  have c0 := ((((h.q3.other (show w.heap.size + 3 ≠ w.heap.size + 2 by omega) (.slice d m cd) (k := 0)).other (show w.heap.size + 3 ≠ w.heap.size + 2 by omega) (.slice d' m' cd') (k := 1)).other (show w.heap.size + 3 ≠ w.heap.size + 2 by omega) (.int .i64 ep') (k := 2)).other (show w.heap.size + 3 ≠ w.heap.size + 2 by omega) (.int .i64 mx) (k := 3)).other (show w.heap.size + 3 ≠ w.heap.size + 2 by omega) (.slice va vn vc) (k := 4)
  have c1 := c0.set 0 (.int .i64 s2)
  exact ⟨⟨Z, Z', ep', mx, l'.map UE.u, ⟨d, m, cd, d', m', cd', va, vn, vc, l', rfl, ((((((h.sto'.setBox b0 _).setBox b1 _).setBox b2 _).setBox b3 _).setBox b9 _).setBox c0 _).setBox c1 _, rfl⟩, h.sg'⟩, ((((((h.below.setCell (by dsimp only; omega) _).setCell (by dsimp only; omega) _).setCell (by dsimp only; omega) _).setCell (by dsimp only; omega) _).setCell (by dsimp only; omega) _).setCell (by dsimp only; omega) _).setCell (by dsimp only; omega) _⟩
end

set_option maxRecDepth 10000 in
set_option maxHeartbeats 6400000 in
theorem l15Does_ok (lo : Nat) (k : Int) (a : Option Addr) (n ca : Nat) (X : List ByteArray) (a' : Option Addr) (n' ca' : Nat) (Y : List ByteArray) (ep nx : Int) (ua : Option Addr) (un uc : Nat) (l : List UE) (op : Int) (id : ByteArray) (rn : Int) (da : Option Addr) (dl dc : Nat) (zs : List Int) (w : World) (hst : StoAt w lo a n ca X a' n' ca' Y ua un uc l) (hsg : SG k X Y ep nx (l.map UE.u)) (hlo : lo ≤ w.heap.size) (hid : id ≠ newId) (hids : id.size ≤ maxLen) (hrn : -9223372036854775808 ≤ rn ∧ rn ≤ 4294967295) (hsd : Seg w da dl zs) (hzb : ∀ x ∈ zs, 0 ≤ x ∧ x ≤ 255) (hdc : dl ≤ dc) (hdl : dl ≤ 1000000000) :
    Calls Tryz.prog 59 #[.agg #[.slice a n ca, .slice a' n' ca', .int .i64 ep, .int .i64 nx, .slice ua un uc], .agg #[.int .i64 op, .string id, .int .i64 rn], .slice da dl dc] w fun e w' => (∃ v st off, e = .returned (.tuple #[v, .agg #[.int .i64 st, .int .i64 off]]) ∧ DrawnS lo k v w' ∧ respB st off = true) ∧ Below w.heap.size w w' := by
  have hmm : 1000000000 < maxLen := by decide
  have hp := hst.pre hsg.ok
  have hg := gotU_small hsg.ok id
  have hl : ∀ e ∈ l, e.n ≤ 1099511627776 := fun e he => by have := hp.2.2.2.2.2.2.2.2.1 e he; omega
  have hp3 := hp.2.2.1
  have hp4 := hp.2.2.2.1
  have hp8 := hp.2.2.2.2.2.2.2.1
  have hzl : zs.length = dl := hsd.1
  have HMk : Hid (∀ W, Below w.heap.size w W → Calls Tryz.prog 83 #[.agg #[.slice a n ca, .slice a' n' ca', .int .i64 ep, .int .i64 nx, .slice ua un uc], .string id, .int .i64 rn] W fun e w' => ∃ v c, e = .returned (.tuple #[v, .int .i64 c]) ∧ DrawnS W.heap.size k v w' ∧ True ∧ Below W.heap.size W w') := fun W hb => by
    refine (specMake_any a n ca X a' n' ca' Y ep nx ua un uc lo l id rn W (hp.1.below hb) (hp.2.1.below hb) (by omega) (by omega) hp.2.2.2.2.1 (hp.2.2.2.2.2.1.stays hb) hp.2.2.2.2.2.2.1 (by omega) hl hids (by omega)).mono ?_
    rintro e w' ⟨h1, h2⟩
    obtain ⟨v, c, rfl, h3, rfl⟩ := h1.drawn (hsg.make hid)
    exact ⟨v, _, rfl, h3, trivial, h2⟩
  have HPu : Hid (∀ W, Below w.heap.size w W → Calls Tryz.prog 84 #[.agg #[.slice a n ca, .slice a' n' ca', .int .i64 ep, .int .i64 nx, .slice ua un uc], .string id, .int .i64 rn, .slice da dl dc] W fun e w' => ∃ v c, e = .returned (.tuple #[v, .int .i64 c]) ∧ DrawnS W.heap.size k v w' ∧ (c = 0 → 0 ≤ rn ∧ rn + (dl : Int) ≤ 1000000000) ∧ Below W.heap.size W w') := fun W hb => by
    refine (specPutUp_any a n ca X a' n' ca' Y ep nx ua un uc lo l id rn da dl dc zs W (hp.1.below hb) (hp.2.1.below hb) (by omega) (by omega) hp.2.2.2.2.1 (hp.2.2.2.2.2.1.stays hb) hp.2.2.2.2.2.2.1 (by omega) hl hids (by omega) (hsd.below hb) hdc (by omega)).mono ?_
    rintro e w' ⟨h1, h2⟩
    obtain ⟨v, c, rfl, h3, rfl⟩ := h1.drawn (hsg.put hid hzb)
    exact ⟨v, _, rfl, h3, fun hc => by have := putA_off hsg.ok hc; rw [hzl] at this; exact this, h2⟩
  have HDo : Hid (∀ W, Below w.heap.size w W → Calls Tryz.prog 85 #[.agg #[.slice a n ca, .slice a' n' ca', .int .i64 ep, .int .i64 nx, .slice ua un uc], .string id, .int .i64 rn] W fun e w' => ∃ v c, e = .returned (.tuple #[v, .int .i64 c]) ∧ DrawnS W.heap.size k v w' ∧ True ∧ Below W.heap.size W w') := fun W hb => by
    refine (specDone_any a n ca X a' n' ca' Y ep nx ua un uc lo l id rn W (hp.1.below hb) (hp.2.1.below hb) (by omega) (by omega) hp.2.2.2.2.1 (hp.2.2.2.2.2.1.stays hb) hp.2.2.2.2.2.2.1 (by omega) hl hids).mono ?_
    rintro e w' ⟨h1, h2⟩
    obtain ⟨v, c, rfl, h3, rfl⟩ := h1.drawn (hsg.done hid)
    exact ⟨v, _, rfl, h3, trivial, h2⟩
  have HDr : Hid (∀ W, Below w.heap.size w W → Calls Tryz.prog 86 #[.agg #[.slice a n ca, .slice a' n' ca', .int .i64 ep, .int .i64 nx, .slice ua un uc], .string id] W fun e w' => ∃ v c, e = .returned (.tuple #[v, .int .i64 c]) ∧ DrawnS W.heap.size k v w' ∧ True ∧ Below W.heap.size W w') := fun W hb => by
    refine (specDrop_any a n ca X a' n' ca' Y ep nx ua un uc lo l id W (hp.1.below hb) (hp.2.1.below hb) (by omega) (by omega) hp.2.2.2.2.1 (hp.2.2.2.2.2.1.stays hb) hp.2.2.2.2.2.2.1 (by omega) hl hids).mono ?_
    rintro e w' ⟨h1, h2⟩
    obtain ⟨v, c, rfl, h3, rfl⟩ := h1.drawn (hsg.drop hid)
    exact ⟨v, _, rfl, h3, trivial, h2⟩
  have HLk : Hid (∀ W, Below w.heap.size w W → Calls Tryz.prog 87 #[.agg #[.slice a n ca, .slice a' n' ca', .int .i64 ep, .int .i64 nx, .slice ua un uc], .agg #[.int .i64 op, .string id, .int .i64 rn]] W fun e w' => ∃ st off, e = .returned (.agg #[.int .i64 st, .int .i64 off]) ∧ respB st off = true ∧ Below W.heap.size W w') := fun W hb => by
    refine (specLooks_ok a n ca a' n' ca' ep nx ua un uc lo l op id rn W (hp.2.2.2.2.2.1.stays hb) hp.2.2.2.2.2.2.1 (by omega) hl hg).mono ?_
    rintro e w' ⟨⟨st, off, rfl, h1⟩, h2⟩
    exact ⟨st, off, rfl, h1, h2⟩
  have HBd : Hid (∀ W (c : Int), Below w.heap.size w W → Calls Tryz.prog 88 #[.agg #[.slice a n ca, .slice a' n' ca', .int .i64 ep, .int .i64 nx, .slice ua un uc], .string id, .int .i64 c] W fun e w' => ∃ st off, e = .returned (.agg #[.int .i64 st, .int .i64 off]) ∧ respB st off = true ∧ Below W.heap.size W w') := fun W c hb => by
    refine (specBad_ok a n ca a' n' ca' ep nx ua un uc lo l id c W (hp.2.2.2.2.2.1.stays hb) hp.2.2.2.2.2.2.1 (by omega) hl hg).mono ?_
    rintro e w' ⟨⟨st, off, rfl, h1⟩, h2⟩
    exact ⟨st, off, rfl, h1, h2⟩
  obtain ⟨hrn0, hrn1⟩ := hrn
  have HST : Hid (StoAt w lo a n ca X a' n' ca' Y ua un uc l) := hst
  have HSG : Hid (SG k X Y ep nx (l.map UE.u)) := hsg
  have HLo : Hid (lo ≤ w.heap.size) := hlo
  clear hp hg hl hst hsg hsd hzb hzl hids hid hp3 hp4 hp8 hlo
  obtain ⟨w0, hw0⟩ : ∃ w0, (((w.alloc (.cells #[.slice a n ca, .slice a' n' ca', .int .i64 ep, .int .i64 nx, .slice ua un uc] 29)).alloc (.cells #[.int .i64 op, .string id, .int .i64 rn] 74)).alloc (.cells #[.slice none 0 0, .slice none 0 0, .int .i64 0, .int .i64 0, .slice none 0 0] 29)).alloc (.cells #[.int .i64 0, .int .i64 0] 52) = w0 := ⟨_, rfl⟩
  have HE : Hid ((((w.alloc (.cells #[.slice a n ca, .slice a' n' ca', .int .i64 ep, .int .i64 nx, .slice ua un uc] 29)).alloc (.cells #[.int .i64 op, .string id, .int .i64 rn] 74)).alloc (.cells #[.slice none 0 0, .slice none 0 0, .int .i64 0, .int .i64 0, .slice none 0 0] 29)).alloc (.cells #[.int .i64 0, .int .i64 0] 52) = w0) := hw0
  have HB : Hid (Below w.heap.size w w0) := by show Below _ _ _; rw [← hw0]; exact (((((Below.refl _ _).alloc (by exact Nat.le_refl _) _).alloc (by simp only [World.size_alloc]; omega) _).alloc (by simp only [World.size_alloc]; omega) _).alloc (by simp only [World.size_alloc]; omega) _)
  have HQ0 : Hid (BoxN w0 (w.heap.size) 29 [.slice a n ca, .slice a' n' ca', .int .i64 ep, .int .i64 nx, .slice ua un uc]) := by
    show BoxN _ _ _ _
    rw [← hw0]
    have := BoxN.new (w) 29 [.slice a n ca, .slice a' n' ca', .int .i64 ep, .int .i64 nx, .slice ua un uc]
    exact (((this.alloc _).alloc _).alloc _)
  have HQ1 : Hid (BoxN w0 (w.heap.size + 1) 74 [.int .i64 op, .string id, .int .i64 rn]) := by
    show BoxN _ _ _ _
    rw [← hw0]
    have := BoxN.new (w.alloc (.cells #[.slice a n ca, .slice a' n' ca', .int .i64 ep, .int .i64 nx, .slice ua un uc] 29)) 74 [.int .i64 op, .string id, .int .i64 rn]
    simp only [World.size_alloc] at this
    exact ((this.alloc _).alloc _)
  have HQ2 : Hid (BoxN w0 (w.heap.size + 2) 29 [.slice none 0 0, .slice none 0 0, .int .i64 0, .int .i64 0, .slice none 0 0]) := by
    show BoxN _ _ _ _
    rw [← hw0]
    have := BoxN.new ((w.alloc (.cells #[.slice a n ca, .slice a' n' ca', .int .i64 ep, .int .i64 nx, .slice ua un uc] 29)).alloc (.cells #[.int .i64 op, .string id, .int .i64 rn] 74)) 29 [.slice none 0 0, .slice none 0 0, .int .i64 0, .int .i64 0, .slice none 0 0]
    simp only [World.size_alloc] at this
    exact (this.alloc _)
  have HQ3 : Hid (BoxN w0 (w.heap.size + 3) 52 [.int .i64 0, .int .i64 0]) := by
    show BoxN _ _ _ _
    rw [← hw0]
    have := BoxN.new (((w.alloc (.cells #[.slice a n ca, .slice a' n' ca', .int .i64 ep, .int .i64 nx, .slice ua un uc] 29)).alloc (.cells #[.int .i64 op, .string id, .int .i64 rn] 74)).alloc (.cells #[.slice none 0 0, .slice none 0 0, .int .i64 0, .int .i64 0, .slice none 0 0] 29)) 52 [.int .i64 0, .int .i64 0]
    simp only [World.size_alloc] at this
    exact this
  have hz0 : w0.heap.size = w.heap.size + 4 := by rw [← hw0]; simp
  clear hw0
  obtain ⟨w1, hw1⟩ : ∃ w1, w0.alloc (.cells #[.int .i64 200, .int .i64 (-1)] 52) = w1 := ⟨_, rfl⟩
  have HE1 : Hid (w0.alloc (.cells #[.int .i64 200, .int .i64 (-1)] 52) = w1) := hw1
  obtain ⟨w2, hw2⟩ : ∃ w2, w1.alloc (.cells #[.slice a n ca, .slice a' n' ca', .int .i64 ep, .int .i64 nx, .slice ua un uc] 29) = w2 := ⟨_, rfl⟩
  have HE2 : Hid (w1.alloc (.cells #[.slice a n ca, .slice a' n' ca', .int .i64 ep, .int .i64 nx, .slice ua un uc] 29) = w2) := hw2
  have hb1 : Below w0.heap.size w0 w1 := by rw [← hw1]; exact (Below.refl _ _).alloc (Nat.le_refl _) _
  have hb2 : Below w1.heap.size w1 w2 := by rw [← hw2]; exact (Below.refl _ _).alloc (Nat.le_refl _) _
  have q4 : BoxN w1 w0.heap.size 52 [.int .i64 200, .int .i64 (-1)] := by rw [← hw1]; exact BoxN.new _ _ _
  have q5 : BoxN w2 w1.heap.size 29 [.slice a n ca, .slice a' n' ca', .int .i64 ep, .int .i64 nx, .slice ua un uc] := by rw [← hw2]; exact BoxN.new _ _ _
  have hbw : Below w.heap.size w w2 := (HB.out.trans (hb1.mono (by omega))).trans (hb2.mono (Nat.le_trans (by omega) hb1.size))
  have HD2 : Hid (DoV w w2 lo k w0.heap.size w1.heap.size a n ca X a' n' ca' Y ep nx ua un uc l op id rn 200 (-1) a n ca X a' n' ca' Y ep nx ua un uc l) :=
    ⟨(HQ0.out.stays hb1).stays hb2, (HQ1.out.stays hb1).stays hb2, (HQ2.out.stays hb1).stays hb2, (HQ3.out.stays hb1).stays hb2, q4.stays hb2, q5, HST.out.stays hbw, HST.out.stays hbw, HSG.out, HSG.out, hbw, by omega, q4.lt, HLo.out⟩
  have HQ01 : Hid (BoxN w1 w.heap.size 29 [.slice a n ca, .slice a' n' ca', .int .i64 ep, .int .i64 nx, .slice ua un uc]) := HQ0.out.stays hb1
  clear hw1 hw2 hb1 hb2 q4 q5 hbw HB HQ0 HQ1 HQ2 HQ3 HST HSG HLo hz0
  go_enter Tryz.func59, Tryz.ntmps59
  go_upto_region 1 with fail
  rw [HE.out]
  clear HE
  go_upto_region 3 with fail
  rw [HE1.out]
  clear HE1
  have p0 := HQ01.out.cell 0 rfl
  have p1 := HQ01.out.cell 1 rfl
  have p2 := HQ01.out.cell 2 rfl
  have p3 := HQ01.out.cell 3 rfl
  have p4 := HQ01.out.cell 4 rfl
  go_upto_region 4 with fail
  rw [HE2.out]
  clear HE2 p0 p1 p2 p3 p4 HQ01
  generalize w0.heap.size = b4 at *
  generalize w1.heap.size = b5 at *
  have g0 := HD2.out.q1.cell 0 rfl
  go_upto_block 0 with fail
  clear g0
  go_cut [9] from 15 (fun v W => ∃ (c st off : Int) (d : Option Addr) (m cd : Nat) (Z : List ByteArray) (d' : Option Addr) (m' cd' : Nat) (Z' : List ByteArray) (ep' mx : Int) (va : Option Addr) (vn vc : Nat) (l' : List UE), v = .int .i64 c ∧ Hid (c = 0 → respB st off = true) ∧ Hid (DoV w W lo k b4 b5 a n ca X a' n' ca' Y ep nx ua un uc l op id rn st off d m cd Z d' m' cd' Z' ep' mx va vn vc l'))
  case first =>
    have h4 := HD2.out.l4
    have h5 := HD2.out.l5
    by_cases h1 : op = 1
    · subst h1
      have g00 := HD2.out.q0.cell 0 rfl
      have g01 := HD2.out.q0.cell 1 rfl
      have g02 := HD2.out.q0.cell 2 rfl
      have g03 := HD2.out.q0.cell 3 rfl
      have g04 := HD2.out.q0.cell 4 rfl
      have g10 := HD2.out.q1.cell 0 rfl
      have g11 := HD2.out.q1.cell 1 rfl
      have g12 := HD2.out.q1.cell 2 rfl
      go_wp2_with fail
      refine (HMk.out w2 HD2.out.below).mono ?_
      rintro e y ⟨v, c, rfl, ⟨Z, Z', ep', mx, us', hans, hsg'⟩, hc, hby⟩
      obtain ⟨d, cd, d', cd', va, vc, l', rfl, hs2, hm2⟩ := hans.get
      rw [← hm2] at hsg'
      have hDy := HD2.out.stays hby
      have HN : Hid (DoV w (((((y.setCell ⟨b5, 0, none⟩ (.slice d Z.length cd)).setCell ⟨b5, 1, none⟩ (.slice d' Z'.length cd')).setCell ⟨b5, 2, none⟩ (.int .i64 ep')).setCell ⟨b5, 3, none⟩ (.int .i64 mx)).setCell ⟨b5, 4, none⟩ (.slice va us'.length vc)) lo k b4 b5 a n ca X a' n' ca' Y ep nx ua un uc l 1 id rn 200 (-1) d Z.length cd Z d' Z'.length cd' Z' ep' mx va us'.length vc l') := hDy.next (hs2.low (Nat.le_trans HD2.out.low HD2.out.below.size)) hsg'
      have k40 := hDy.q4.cell 0 rfl
      have f40 := hDy.q4.frozen 0
      have k41 := hDy.q4.cell 1 rfl
      have f41 := hDy.q4.frozen 1
      have k50 := hDy.q5.cell 0 rfl
      have f50 := hDy.q5.frozen 0
      have k51 := hDy.q5.cell 1 rfl
      have f51 := hDy.q5.frozen 1
      have k52 := hDy.q5.cell 2 rfl
      have f52 := hDy.q5.frozen 2
      have k53 := hDy.q5.cell 3 rfl
      have f53 := hDy.q5.frozen 3
      have k54 := hDy.q5.cell 4 rfl
      have f54 := hDy.q5.frozen 4
      clear hans hs2 hm2 hsg' hby hDy HD2 g00 g01 g02 g03 g04 g10 g11 g12
      have HCc : Hid (c = 0 → True) := fun h0 => trivial
      clear hc
      go_upto_region 8 with fail
      obtain ⟨y2, hy2⟩ : ∃ y2, (((((y.setCell ⟨b5, 0, none⟩ (.slice d Z.length cd)).setCell ⟨b5, 1, none⟩ (.slice d' Z'.length cd')).setCell ⟨b5, 2, none⟩ (.int .i64 ep')).setCell ⟨b5, 3, none⟩ (.int .i64 mx)).setCell ⟨b5, 4, none⟩ (.slice va us'.length vc)) = y2 := ⟨_, rfl⟩
      rw [hy2] at HN ⊢
      clear hy2 k50 f50 k51 f51 k52 f52 k53 f53 k54 f54 k40 k41 f40 f41
      have k40 := HN.out.q4.cell 0 rfl
      have k41 := HN.out.q4.cell 1 rfl
      have f40 := HN.out.q4.frozen 0
      have f41 := HN.out.q4.frozen 1
      go_wp2_with fail
      go_meet
      exact ⟨c, _, _, _, _, _, _, _, _, _, _, _, _, _, _, _, _, rfl, fun h0 => respB_of (by omega) (by omega), HN.out.good 201 0⟩
    have e1 : (op == 1) = false := by simpa using h1
    by_cases h3 : op = 3
    · subst h3
      have g00 := HD2.out.q0.cell 0 rfl
      have g01 := HD2.out.q0.cell 1 rfl
      have g02 := HD2.out.q0.cell 2 rfl
      have g03 := HD2.out.q0.cell 3 rfl
      have g04 := HD2.out.q0.cell 4 rfl
      have g10 := HD2.out.q1.cell 0 rfl
      have g11 := HD2.out.q1.cell 1 rfl
      have g12 := HD2.out.q1.cell 2 rfl
      go_wp2_with fail
      refine (HPu.out w2 HD2.out.below).mono ?_
      rintro e y ⟨v, c, rfl, ⟨Z, Z', ep', mx, us', hans, hsg'⟩, hc, hby⟩
      obtain ⟨d, cd, d', cd', va, vc, l', rfl, hs2, hm2⟩ := hans.get
      rw [← hm2] at hsg'
      have hDy := HD2.out.stays hby
      have HN : Hid (DoV w (((((y.setCell ⟨b5, 0, none⟩ (.slice d Z.length cd)).setCell ⟨b5, 1, none⟩ (.slice d' Z'.length cd')).setCell ⟨b5, 2, none⟩ (.int .i64 ep')).setCell ⟨b5, 3, none⟩ (.int .i64 mx)).setCell ⟨b5, 4, none⟩ (.slice va us'.length vc)) lo k b4 b5 a n ca X a' n' ca' Y ep nx ua un uc l 3 id rn 200 (-1) d Z.length cd Z d' Z'.length cd' Z' ep' mx va us'.length vc l') := hDy.next (hs2.low (Nat.le_trans HD2.out.low HD2.out.below.size)) hsg'
      have k40 := hDy.q4.cell 0 rfl
      have f40 := hDy.q4.frozen 0
      have k41 := hDy.q4.cell 1 rfl
      have f41 := hDy.q4.frozen 1
      have k50 := hDy.q5.cell 0 rfl
      have f50 := hDy.q5.frozen 0
      have k51 := hDy.q5.cell 1 rfl
      have f51 := hDy.q5.frozen 1
      have k52 := hDy.q5.cell 2 rfl
      have f52 := hDy.q5.frozen 2
      have k53 := hDy.q5.cell 3 rfl
      have f53 := hDy.q5.frozen 3
      have k54 := hDy.q5.cell 4 rfl
      have f54 := hDy.q5.frozen 4
      have k12 := hDy.q1.cell 2 rfl
      clear hans hs2 hm2 hsg' hby hDy HD2 g00 g01 g02 g03 g04 g10 g11 g12
      have HCc : Hid (c = 0 → 0 ≤ rn ∧ rn + (dl : Int) ≤ 1000000000) := fun h0 => hc h0
      clear hc
      go_upto_region 11 with fail
      obtain ⟨y2, hy2⟩ : ∃ y2, (((((y.setCell ⟨b5, 0, none⟩ (.slice d Z.length cd)).setCell ⟨b5, 1, none⟩ (.slice d' Z'.length cd')).setCell ⟨b5, 2, none⟩ (.int .i64 ep')).setCell ⟨b5, 3, none⟩ (.int .i64 mx)).setCell ⟨b5, 4, none⟩ (.slice va us'.length vc)) = y2 := ⟨_, rfl⟩
      rw [hy2] at HN ⊢
      clear hy2 k50 f50 k51 f51 k52 f52 k53 f53 k54 f54 k40 k41 f40 f41 k12
      have k40 := HN.out.q4.cell 0 rfl
      have k41 := HN.out.q4.cell 1 rfl
      have f40 := HN.out.q4.frozen 0
      have f41 := HN.out.q4.frozen 1
      have k12 := HN.out.q1.cell 2 rfl
      go_wp2_with fail
      go_meet
      exact ⟨c, _, _, _, _, _, _, _, _, _, _, _, _, _, _, _, _, rfl, fun h0 => respB_of (by omega) (by have := HCc.out h0; omega), HN.out.good 204 (rn + (dl : Int))⟩
    have e3 : (op == 3) = false := by simpa using h3
    by_cases h4 : op = 4
    · subst h4
      have g00 := HD2.out.q0.cell 0 rfl
      have g01 := HD2.out.q0.cell 1 rfl
      have g02 := HD2.out.q0.cell 2 rfl
      have g03 := HD2.out.q0.cell 3 rfl
      have g04 := HD2.out.q0.cell 4 rfl
      have g10 := HD2.out.q1.cell 0 rfl
      have g11 := HD2.out.q1.cell 1 rfl
      have g12 := HD2.out.q1.cell 2 rfl
      go_wp2_with fail
      refine (HDo.out w2 HD2.out.below).mono ?_
      rintro e y ⟨v, c, rfl, ⟨Z, Z', ep', mx, us', hans, hsg'⟩, hc, hby⟩
      obtain ⟨d, cd, d', cd', va, vc, l', rfl, hs2, hm2⟩ := hans.get
      rw [← hm2] at hsg'
      have hDy := HD2.out.stays hby
      have HN : Hid (DoV w (((((y.setCell ⟨b5, 0, none⟩ (.slice d Z.length cd)).setCell ⟨b5, 1, none⟩ (.slice d' Z'.length cd')).setCell ⟨b5, 2, none⟩ (.int .i64 ep')).setCell ⟨b5, 3, none⟩ (.int .i64 mx)).setCell ⟨b5, 4, none⟩ (.slice va us'.length vc)) lo k b4 b5 a n ca X a' n' ca' Y ep nx ua un uc l 4 id rn 200 (-1) d Z.length cd Z d' Z'.length cd' Z' ep' mx va us'.length vc l') := hDy.next (hs2.low (Nat.le_trans HD2.out.low HD2.out.below.size)) hsg'
      have k40 := hDy.q4.cell 0 rfl
      have f40 := hDy.q4.frozen 0
      have k41 := hDy.q4.cell 1 rfl
      have f41 := hDy.q4.frozen 1
      have k50 := hDy.q5.cell 0 rfl
      have f50 := hDy.q5.frozen 0
      have k51 := hDy.q5.cell 1 rfl
      have f51 := hDy.q5.frozen 1
      have k52 := hDy.q5.cell 2 rfl
      have f52 := hDy.q5.frozen 2
      have k53 := hDy.q5.cell 3 rfl
      have f53 := hDy.q5.frozen 3
      have k54 := hDy.q5.cell 4 rfl
      have f54 := hDy.q5.frozen 4
      clear hans hs2 hm2 hsg' hby hDy HD2 g00 g01 g02 g03 g04 g10 g11 g12
      have HCc : Hid (c = 0 → True) := fun h0 => trivial
      clear hc
      go_wp2_with fail
      go_meet
      exact ⟨c, _, _, _, _, _, _, _, _, _, _, _, _, _, _, _, _, rfl, fun h0 => respB_of (by omega) (by omega), HN.out⟩
    have e4 : (op == 4) = false := by simpa using h4
    by_cases h6 : op = 6
    · subst h6
      have g00 := HD2.out.q0.cell 0 rfl
      have g01 := HD2.out.q0.cell 1 rfl
      have g02 := HD2.out.q0.cell 2 rfl
      have g03 := HD2.out.q0.cell 3 rfl
      have g04 := HD2.out.q0.cell 4 rfl
      have g10 := HD2.out.q1.cell 0 rfl
      have g11 := HD2.out.q1.cell 1 rfl
      have g12 := HD2.out.q1.cell 2 rfl
      go_wp2_with fail
      refine (HDr.out w2 HD2.out.below).mono ?_
      rintro e y ⟨v, c, rfl, ⟨Z, Z', ep', mx, us', hans, hsg'⟩, hc, hby⟩
      obtain ⟨d, cd, d', cd', va, vc, l', rfl, hs2, hm2⟩ := hans.get
      rw [← hm2] at hsg'
      have hDy := HD2.out.stays hby
      have HN : Hid (DoV w (((((y.setCell ⟨b5, 0, none⟩ (.slice d Z.length cd)).setCell ⟨b5, 1, none⟩ (.slice d' Z'.length cd')).setCell ⟨b5, 2, none⟩ (.int .i64 ep')).setCell ⟨b5, 3, none⟩ (.int .i64 mx)).setCell ⟨b5, 4, none⟩ (.slice va us'.length vc)) lo k b4 b5 a n ca X a' n' ca' Y ep nx ua un uc l 6 id rn 200 (-1) d Z.length cd Z d' Z'.length cd' Z' ep' mx va us'.length vc l') := hDy.next (hs2.low (Nat.le_trans HD2.out.low HD2.out.below.size)) hsg'
      have k40 := hDy.q4.cell 0 rfl
      have f40 := hDy.q4.frozen 0
      have k41 := hDy.q4.cell 1 rfl
      have f41 := hDy.q4.frozen 1
      have k50 := hDy.q5.cell 0 rfl
      have f50 := hDy.q5.frozen 0
      have k51 := hDy.q5.cell 1 rfl
      have f51 := hDy.q5.frozen 1
      have k52 := hDy.q5.cell 2 rfl
      have f52 := hDy.q5.frozen 2
      have k53 := hDy.q5.cell 3 rfl
      have f53 := hDy.q5.frozen 3
      have k54 := hDy.q5.cell 4 rfl
      have f54 := hDy.q5.frozen 4
      clear hans hs2 hm2 hsg' hby hDy HD2 g00 g01 g02 g03 g04 g10 g11 g12
      have HCc : Hid (c = 0 → True) := fun h0 => trivial
      clear hc
      go_upto_region 16 with fail
      obtain ⟨y2, hy2⟩ : ∃ y2, (((((y.setCell ⟨b5, 0, none⟩ (.slice d Z.length cd)).setCell ⟨b5, 1, none⟩ (.slice d' Z'.length cd')).setCell ⟨b5, 2, none⟩ (.int .i64 ep')).setCell ⟨b5, 3, none⟩ (.int .i64 mx)).setCell ⟨b5, 4, none⟩ (.slice va us'.length vc)) = y2 := ⟨_, rfl⟩
      rw [hy2] at HN ⊢
      clear hy2 k50 f50 k51 f51 k52 f52 k53 f53 k54 f54 k40 k41 f40 f41
      have k40 := HN.out.q4.cell 0 rfl
      have k41 := HN.out.q4.cell 1 rfl
      have f40 := HN.out.q4.frozen 0
      have f41 := HN.out.q4.frozen 1
      go_wp2_with fail
      go_meet
      exact ⟨c, _, _, _, _, _, _, _, _, _, _, _, _, _, _, _, _, rfl, fun h0 => respB_of (by omega) (by omega), HN.out.good1 204⟩
    have e6 : (op == 6) = false := by simpa using h6
    go_upto_region 5 with fail
    clear e1 e3 e4 e6 HMk HPu HDo HDr HBd
    have HDd : Hid (DoV w w2.drew lo k b4 b5 a n ca X a' n' ca' Y ep nx ua un uc l op id rn 200 (-1) a n ca X a' n' ca' Y ep nx ua un uc l) := HD2.out.stays (Below.refl _ _).drew
    have g00 := HDd.out.q0.cell 0 rfl
    have g01 := HDd.out.q0.cell 1 rfl
    have g02 := HDd.out.q0.cell 2 rfl
    have g03 := HDd.out.q0.cell 3 rfl
    have g04 := HDd.out.q0.cell 4 rfl
    have g10 := HDd.out.q1.cell 0 rfl
    have g11 := HDd.out.q1.cell 1 rfl
    have g12 := HDd.out.q1.cell 2 rfl
    clear HD2
    go_region_held3 (fun W => W.cell? ⟨w.heap.size, 0, none⟩ = some (.slice a n ca) ∧ W.cell? ⟨w.heap.size, 1, none⟩ = some (.slice a' n' ca') ∧ W.cell? ⟨w.heap.size, 2, none⟩ = some (.int .i64 ep) ∧ W.cell? ⟨w.heap.size, 3, none⟩ = some (.int .i64 nx) ∧ W.cell? ⟨w.heap.size, 4, none⟩ = some (.slice ua un uc) ∧ W.cell? ⟨w.heap.size + 1, 0, none⟩ = some (.int .i64 op) ∧ W.cell? ⟨w.heap.size + 1, 1, none⟩ = some (.string id) ∧ W.cell? ⟨w.heap.size + 1, 2, none⟩ = some (.int .i64 rn)) (first | with_reducible exact ⟨g00, g01, g02, g03, g04, g10, g11, g12⟩ | with_reducible exact ⟨m00, m01, m02, m03, m04, m10, m11, m12⟩ | with_reducible exact ⟨t00 _ _ _ _ _, t01 _ _ _ _ _, t02 _ _ _ _ _, t03 _ _ _ _ _, t04 _ _ _ _ _, t10 _ _ _ _ _, t11 _ _ _ _ _, t12 _ _ _ _ _⟩ | with_reducible exact ⟨x00 _ _ _ _ _ _ _, x01 _ _ _ _ _ _ _, x02 _ _ _ _ _ _ _, x03 _ _ _ _ _ _ _, x04 _ _ _ _ _ _ _, x10 _ _ _ _ _ _ _, x11 _ _ _ _ _ _ _, x12 _ _ _ _ _ _ _⟩ | fail) (first
      | (go_at_call 87; refine (HLk.out w2.drew HDd.out.below).mono ?_; rintro e y ⟨st, off, rfl, hr, hby⟩
         have HDy := (show Hid _ from HDd.out.stays hby)
         have m00 := HDy.out.q0.cell 0 rfl
         have m01 := HDy.out.q0.cell 1 rfl
         have m02 := HDy.out.q0.cell 2 rfl
         have m03 := HDy.out.q0.cell 3 rfl
         have m04 := HDy.out.q0.cell 4 rfl
         have m10 := HDy.out.q1.cell 0 rfl
         have m11 := HDy.out.q1.cell 1 rfl
         have m12 := HDy.out.q1.cell 2 rfl
         have t00 : ∀ v0 v1 v2 v3 v4 : Value, (((((y.setCell ⟨w.heap.size + 2, 0, none⟩ v0).setCell ⟨w.heap.size + 2, 1, none⟩ v1).setCell ⟨w.heap.size + 2, 2, none⟩ v2).setCell ⟨w.heap.size + 2, 3, none⟩ v3).setCell ⟨w.heap.size + 2, 4, none⟩ v4).cell? ⟨w.heap.size, 0, none⟩ = some (.slice a n ca) := fun v0 v1 v2 v3 v4 => BoxN.cell (((((BoxN.other HDy.out.q0 (by omega) _).other (by omega) _).other (by omega) _).other (by omega) _).other (by omega) _) 0 rfl
         have t01 : ∀ v0 v1 v2 v3 v4 : Value, (((((y.setCell ⟨w.heap.size + 2, 0, none⟩ v0).setCell ⟨w.heap.size + 2, 1, none⟩ v1).setCell ⟨w.heap.size + 2, 2, none⟩ v2).setCell ⟨w.heap.size + 2, 3, none⟩ v3).setCell ⟨w.heap.size + 2, 4, none⟩ v4).cell? ⟨w.heap.size, 1, none⟩ = some (.slice a' n' ca') := fun v0 v1 v2 v3 v4 => BoxN.cell (((((BoxN.other HDy.out.q0 (by omega) _).other (by omega) _).other (by omega) _).other (by omega) _).other (by omega) _) 1 rfl
         have t02 : ∀ v0 v1 v2 v3 v4 : Value, (((((y.setCell ⟨w.heap.size + 2, 0, none⟩ v0).setCell ⟨w.heap.size + 2, 1, none⟩ v1).setCell ⟨w.heap.size + 2, 2, none⟩ v2).setCell ⟨w.heap.size + 2, 3, none⟩ v3).setCell ⟨w.heap.size + 2, 4, none⟩ v4).cell? ⟨w.heap.size, 2, none⟩ = some (.int .i64 ep) := fun v0 v1 v2 v3 v4 => BoxN.cell (((((BoxN.other HDy.out.q0 (by omega) _).other (by omega) _).other (by omega) _).other (by omega) _).other (by omega) _) 2 rfl
         have t03 : ∀ v0 v1 v2 v3 v4 : Value, (((((y.setCell ⟨w.heap.size + 2, 0, none⟩ v0).setCell ⟨w.heap.size + 2, 1, none⟩ v1).setCell ⟨w.heap.size + 2, 2, none⟩ v2).setCell ⟨w.heap.size + 2, 3, none⟩ v3).setCell ⟨w.heap.size + 2, 4, none⟩ v4).cell? ⟨w.heap.size, 3, none⟩ = some (.int .i64 nx) := fun v0 v1 v2 v3 v4 => BoxN.cell (((((BoxN.other HDy.out.q0 (by omega) _).other (by omega) _).other (by omega) _).other (by omega) _).other (by omega) _) 3 rfl
         have t04 : ∀ v0 v1 v2 v3 v4 : Value, (((((y.setCell ⟨w.heap.size + 2, 0, none⟩ v0).setCell ⟨w.heap.size + 2, 1, none⟩ v1).setCell ⟨w.heap.size + 2, 2, none⟩ v2).setCell ⟨w.heap.size + 2, 3, none⟩ v3).setCell ⟨w.heap.size + 2, 4, none⟩ v4).cell? ⟨w.heap.size, 4, none⟩ = some (.slice ua un uc) := fun v0 v1 v2 v3 v4 => BoxN.cell (((((BoxN.other HDy.out.q0 (by omega) _).other (by omega) _).other (by omega) _).other (by omega) _).other (by omega) _) 4 rfl
         have t10 : ∀ v0 v1 v2 v3 v4 : Value, (((((y.setCell ⟨w.heap.size + 2, 0, none⟩ v0).setCell ⟨w.heap.size + 2, 1, none⟩ v1).setCell ⟨w.heap.size + 2, 2, none⟩ v2).setCell ⟨w.heap.size + 2, 3, none⟩ v3).setCell ⟨w.heap.size + 2, 4, none⟩ v4).cell? ⟨w.heap.size + 1, 0, none⟩ = some (.int .i64 op) := fun v0 v1 v2 v3 v4 => BoxN.cell (((((BoxN.other HDy.out.q1 (by omega) _).other (by omega) _).other (by omega) _).other (by omega) _).other (by omega) _) 0 rfl
         have t11 : ∀ v0 v1 v2 v3 v4 : Value, (((((y.setCell ⟨w.heap.size + 2, 0, none⟩ v0).setCell ⟨w.heap.size + 2, 1, none⟩ v1).setCell ⟨w.heap.size + 2, 2, none⟩ v2).setCell ⟨w.heap.size + 2, 3, none⟩ v3).setCell ⟨w.heap.size + 2, 4, none⟩ v4).cell? ⟨w.heap.size + 1, 1, none⟩ = some (.string id) := fun v0 v1 v2 v3 v4 => BoxN.cell (((((BoxN.other HDy.out.q1 (by omega) _).other (by omega) _).other (by omega) _).other (by omega) _).other (by omega) _) 1 rfl
         have t12 : ∀ v0 v1 v2 v3 v4 : Value, (((((y.setCell ⟨w.heap.size + 2, 0, none⟩ v0).setCell ⟨w.heap.size + 2, 1, none⟩ v1).setCell ⟨w.heap.size + 2, 2, none⟩ v2).setCell ⟨w.heap.size + 2, 3, none⟩ v3).setCell ⟨w.heap.size + 2, 4, none⟩ v4).cell? ⟨w.heap.size + 1, 2, none⟩ = some (.int .i64 rn) := fun v0 v1 v2 v3 v4 => BoxN.cell (((((BoxN.other HDy.out.q1 (by omega) _).other (by omega) _).other (by omega) _).other (by omega) _).other (by omega) _) 2 rfl
         have x00 : ∀ v0 v1 v2 v3 v4 v5 v6 : Value, (((((((y.setCell ⟨w.heap.size + 2, 0, none⟩ v0).setCell ⟨w.heap.size + 2, 1, none⟩ v1).setCell ⟨w.heap.size + 2, 2, none⟩ v2).setCell ⟨w.heap.size + 2, 3, none⟩ v3).setCell ⟨w.heap.size + 2, 4, none⟩ v4).setCell ⟨w.heap.size + 3, 0, none⟩ v5).setCell ⟨w.heap.size + 3, 1, none⟩ v6).cell? ⟨w.heap.size, 0, none⟩ = some (.slice a n ca) := fun v0 v1 v2 v3 v4 v5 v6 => BoxN.cell (((((((BoxN.other HDy.out.q0 (by omega) _).other (by omega) _).other (by omega) _).other (by omega) _).other (by omega) _).other (by omega) _).other (by omega) _) 0 rfl
         have x01 : ∀ v0 v1 v2 v3 v4 v5 v6 : Value, (((((((y.setCell ⟨w.heap.size + 2, 0, none⟩ v0).setCell ⟨w.heap.size + 2, 1, none⟩ v1).setCell ⟨w.heap.size + 2, 2, none⟩ v2).setCell ⟨w.heap.size + 2, 3, none⟩ v3).setCell ⟨w.heap.size + 2, 4, none⟩ v4).setCell ⟨w.heap.size + 3, 0, none⟩ v5).setCell ⟨w.heap.size + 3, 1, none⟩ v6).cell? ⟨w.heap.size, 1, none⟩ = some (.slice a' n' ca') := fun v0 v1 v2 v3 v4 v5 v6 => BoxN.cell (((((((BoxN.other HDy.out.q0 (by omega) _).other (by omega) _).other (by omega) _).other (by omega) _).other (by omega) _).other (by omega) _).other (by omega) _) 1 rfl
         have x02 : ∀ v0 v1 v2 v3 v4 v5 v6 : Value, (((((((y.setCell ⟨w.heap.size + 2, 0, none⟩ v0).setCell ⟨w.heap.size + 2, 1, none⟩ v1).setCell ⟨w.heap.size + 2, 2, none⟩ v2).setCell ⟨w.heap.size + 2, 3, none⟩ v3).setCell ⟨w.heap.size + 2, 4, none⟩ v4).setCell ⟨w.heap.size + 3, 0, none⟩ v5).setCell ⟨w.heap.size + 3, 1, none⟩ v6).cell? ⟨w.heap.size, 2, none⟩ = some (.int .i64 ep) := fun v0 v1 v2 v3 v4 v5 v6 => BoxN.cell (((((((BoxN.other HDy.out.q0 (by omega) _).other (by omega) _).other (by omega) _).other (by omega) _).other (by omega) _).other (by omega) _).other (by omega) _) 2 rfl
         have x03 : ∀ v0 v1 v2 v3 v4 v5 v6 : Value, (((((((y.setCell ⟨w.heap.size + 2, 0, none⟩ v0).setCell ⟨w.heap.size + 2, 1, none⟩ v1).setCell ⟨w.heap.size + 2, 2, none⟩ v2).setCell ⟨w.heap.size + 2, 3, none⟩ v3).setCell ⟨w.heap.size + 2, 4, none⟩ v4).setCell ⟨w.heap.size + 3, 0, none⟩ v5).setCell ⟨w.heap.size + 3, 1, none⟩ v6).cell? ⟨w.heap.size, 3, none⟩ = some (.int .i64 nx) := fun v0 v1 v2 v3 v4 v5 v6 => BoxN.cell (((((((BoxN.other HDy.out.q0 (by omega) _).other (by omega) _).other (by omega) _).other (by omega) _).other (by omega) _).other (by omega) _).other (by omega) _) 3 rfl
         have x04 : ∀ v0 v1 v2 v3 v4 v5 v6 : Value, (((((((y.setCell ⟨w.heap.size + 2, 0, none⟩ v0).setCell ⟨w.heap.size + 2, 1, none⟩ v1).setCell ⟨w.heap.size + 2, 2, none⟩ v2).setCell ⟨w.heap.size + 2, 3, none⟩ v3).setCell ⟨w.heap.size + 2, 4, none⟩ v4).setCell ⟨w.heap.size + 3, 0, none⟩ v5).setCell ⟨w.heap.size + 3, 1, none⟩ v6).cell? ⟨w.heap.size, 4, none⟩ = some (.slice ua un uc) := fun v0 v1 v2 v3 v4 v5 v6 => BoxN.cell (((((((BoxN.other HDy.out.q0 (by omega) _).other (by omega) _).other (by omega) _).other (by omega) _).other (by omega) _).other (by omega) _).other (by omega) _) 4 rfl
         have x10 : ∀ v0 v1 v2 v3 v4 v5 v6 : Value, (((((((y.setCell ⟨w.heap.size + 2, 0, none⟩ v0).setCell ⟨w.heap.size + 2, 1, none⟩ v1).setCell ⟨w.heap.size + 2, 2, none⟩ v2).setCell ⟨w.heap.size + 2, 3, none⟩ v3).setCell ⟨w.heap.size + 2, 4, none⟩ v4).setCell ⟨w.heap.size + 3, 0, none⟩ v5).setCell ⟨w.heap.size + 3, 1, none⟩ v6).cell? ⟨w.heap.size + 1, 0, none⟩ = some (.int .i64 op) := fun v0 v1 v2 v3 v4 v5 v6 => BoxN.cell (((((((BoxN.other HDy.out.q1 (by omega) _).other (by omega) _).other (by omega) _).other (by omega) _).other (by omega) _).other (by omega) _).other (by omega) _) 0 rfl
         have x11 : ∀ v0 v1 v2 v3 v4 v5 v6 : Value, (((((((y.setCell ⟨w.heap.size + 2, 0, none⟩ v0).setCell ⟨w.heap.size + 2, 1, none⟩ v1).setCell ⟨w.heap.size + 2, 2, none⟩ v2).setCell ⟨w.heap.size + 2, 3, none⟩ v3).setCell ⟨w.heap.size + 2, 4, none⟩ v4).setCell ⟨w.heap.size + 3, 0, none⟩ v5).setCell ⟨w.heap.size + 3, 1, none⟩ v6).cell? ⟨w.heap.size + 1, 1, none⟩ = some (.string id) := fun v0 v1 v2 v3 v4 v5 v6 => BoxN.cell (((((((BoxN.other HDy.out.q1 (by omega) _).other (by omega) _).other (by omega) _).other (by omega) _).other (by omega) _).other (by omega) _).other (by omega) _) 1 rfl
         have x12 : ∀ v0 v1 v2 v3 v4 v5 v6 : Value, (((((((y.setCell ⟨w.heap.size + 2, 0, none⟩ v0).setCell ⟨w.heap.size + 2, 1, none⟩ v1).setCell ⟨w.heap.size + 2, 2, none⟩ v2).setCell ⟨w.heap.size + 2, 3, none⟩ v3).setCell ⟨w.heap.size + 2, 4, none⟩ v4).setCell ⟨w.heap.size + 3, 0, none⟩ v5).setCell ⟨w.heap.size + 3, 1, none⟩ v6).cell? ⟨w.heap.size + 1, 2, none⟩ = some (.int .i64 rn) := fun v0 v1 v2 v3 v4 v5 v6 => BoxN.cell (((((((BoxN.other HDy.out.q1 (by omega) _).other (by omega) _).other (by omega) _).other (by omega) _).other (by omega) _).other (by omega) _).other (by omega) _) 2 rfl
         have k20 := HDy.out.q2.cell 0 rfl
         have f20 := HDy.out.q2.frozen 0
         have k21 := HDy.out.q2.cell 1 rfl
         have f21 := HDy.out.q2.frozen 1
         have k22 := HDy.out.q2.cell 2 rfl
         have f22 := HDy.out.q2.frozen 2
         have k23 := HDy.out.q2.cell 3 rfl
         have f23 := HDy.out.q2.frozen 3
         have k24 := HDy.out.q2.cell 4 rfl
         have f24 := HDy.out.q2.frozen 4
         have k30 := HDy.out.q3.cell 0 rfl
         have f30 := HDy.out.q3.frozen 0
         have k31 := HDy.out.q3.cell 1 rfl
         have f31 := HDy.out.q3.frozen 1)
      | fail)
    all_goals
      have HF := (show Hid _ from (HDy.out.done st off))
      clear g00 m00 t00 x00 g01 m01 t01 x01 g02 m02 t02 x02 g03 m03 t03 x03 g04 m04 t04 x04 g10 m10 t10 x10 g11 m11 t11 x11 g12 m12 t12 x12 HDd HDy hby HLk
      go_wp2_with fail
      refine bodyPost_ret (v := .tuple #[.agg #[.slice a n ca, .slice a' n' ca', .int .i64 ep, .int .i64 nx, .slice ua un uc], .agg #[.int .i64 st, .int .i64 off]]) (by simp [results, Tryz.f59, go_sem, k20, k21, k22, k23, k24, k30, k31]) rfl ?_
      exact ⟨⟨_, st, off, rfl, HF.out.1, hr⟩, HF.out.2⟩
  case rest =>
    obtain ⟨c, st, off, d, m, cd, Z, d', m', cd', Z', ep', mx, va, vn, vc, l', rfl, HR, HD⟩ := hcut
    clear HMk HPu HDo HDr HLk HD2
    have HDd : Hid (DoV w wc.drew lo k b4 b5 a n ca X a' n' ca' Y ep nx ua un uc l op id rn st off d m cd Z d' m' cd' Z' ep' mx va vn vc l') := HD.out.stays (Below.refl _ _).drew
    by_cases hc : c = 0
    · subst hc
      go_upto_region 19 with fail
      clear HBd
      have hl4 := HDd.out.l4
      have hl5 := HDd.out.l5
      have g50 := BoxN.cell HDd.out.q5 0 rfl
      have g51 := BoxN.cell HDd.out.q5 1 rfl
      have g52 := BoxN.cell HDd.out.q5 2 rfl
      have g53 := BoxN.cell HDd.out.q5 3 rfl
      have g54 := BoxN.cell HDd.out.q5 4 rfl
      have g40 := BoxN.cell HDd.out.q4 0 rfl
      have g41 := BoxN.cell HDd.out.q4 1 rfl
      have t50 : ∀ v0 v1 v2 v3 v4 : Value, (((((wc.setCell ⟨w.heap.size + 2, 0, none⟩ v0).setCell ⟨w.heap.size + 2, 1, none⟩ v1).setCell ⟨w.heap.size + 2, 2, none⟩ v2).setCell ⟨w.heap.size + 2, 3, none⟩ v3).setCell ⟨w.heap.size + 2, 4, none⟩ v4).drew.cell? ⟨b5, 0, none⟩ = some (.slice d m cd) := fun v0 v1 v2 v3 v4 => BoxN.cell (BoxN.stays (((((BoxN.other HD.out.q5 (by omega) _).other (by omega) _).other (by omega) _).other (by omega) _).other (by omega) _) (Below.refl _ _).drew) 0 rfl
      have t51 : ∀ v0 v1 v2 v3 v4 : Value, (((((wc.setCell ⟨w.heap.size + 2, 0, none⟩ v0).setCell ⟨w.heap.size + 2, 1, none⟩ v1).setCell ⟨w.heap.size + 2, 2, none⟩ v2).setCell ⟨w.heap.size + 2, 3, none⟩ v3).setCell ⟨w.heap.size + 2, 4, none⟩ v4).drew.cell? ⟨b5, 1, none⟩ = some (.slice d' m' cd') := fun v0 v1 v2 v3 v4 => BoxN.cell (BoxN.stays (((((BoxN.other HD.out.q5 (by omega) _).other (by omega) _).other (by omega) _).other (by omega) _).other (by omega) _) (Below.refl _ _).drew) 1 rfl
      have t52 : ∀ v0 v1 v2 v3 v4 : Value, (((((wc.setCell ⟨w.heap.size + 2, 0, none⟩ v0).setCell ⟨w.heap.size + 2, 1, none⟩ v1).setCell ⟨w.heap.size + 2, 2, none⟩ v2).setCell ⟨w.heap.size + 2, 3, none⟩ v3).setCell ⟨w.heap.size + 2, 4, none⟩ v4).drew.cell? ⟨b5, 2, none⟩ = some (.int .i64 ep') := fun v0 v1 v2 v3 v4 => BoxN.cell (BoxN.stays (((((BoxN.other HD.out.q5 (by omega) _).other (by omega) _).other (by omega) _).other (by omega) _).other (by omega) _) (Below.refl _ _).drew) 2 rfl
      have t53 : ∀ v0 v1 v2 v3 v4 : Value, (((((wc.setCell ⟨w.heap.size + 2, 0, none⟩ v0).setCell ⟨w.heap.size + 2, 1, none⟩ v1).setCell ⟨w.heap.size + 2, 2, none⟩ v2).setCell ⟨w.heap.size + 2, 3, none⟩ v3).setCell ⟨w.heap.size + 2, 4, none⟩ v4).drew.cell? ⟨b5, 3, none⟩ = some (.int .i64 mx) := fun v0 v1 v2 v3 v4 => BoxN.cell (BoxN.stays (((((BoxN.other HD.out.q5 (by omega) _).other (by omega) _).other (by omega) _).other (by omega) _).other (by omega) _) (Below.refl _ _).drew) 3 rfl
      have t54 : ∀ v0 v1 v2 v3 v4 : Value, (((((wc.setCell ⟨w.heap.size + 2, 0, none⟩ v0).setCell ⟨w.heap.size + 2, 1, none⟩ v1).setCell ⟨w.heap.size + 2, 2, none⟩ v2).setCell ⟨w.heap.size + 2, 3, none⟩ v3).setCell ⟨w.heap.size + 2, 4, none⟩ v4).drew.cell? ⟨b5, 4, none⟩ = some (.slice va vn vc) := fun v0 v1 v2 v3 v4 => BoxN.cell (BoxN.stays (((((BoxN.other HD.out.q5 (by omega) _).other (by omega) _).other (by omega) _).other (by omega) _).other (by omega) _) (Below.refl _ _).drew) 4 rfl
      have x50 : ∀ v0 v1 v2 v3 v4 v5 v6 : Value, (((((((wc.setCell ⟨w.heap.size + 2, 0, none⟩ v0).setCell ⟨w.heap.size + 2, 1, none⟩ v1).setCell ⟨w.heap.size + 2, 2, none⟩ v2).setCell ⟨w.heap.size + 2, 3, none⟩ v3).setCell ⟨w.heap.size + 2, 4, none⟩ v4).setCell ⟨w.heap.size + 3, 0, none⟩ v5).setCell ⟨w.heap.size + 3, 1, none⟩ v6).drew.cell? ⟨b5, 0, none⟩ = some (.slice d m cd) := fun v0 v1 v2 v3 v4 v5 v6 => BoxN.cell (BoxN.stays (((((((BoxN.other HD.out.q5 (by omega) _).other (by omega) _).other (by omega) _).other (by omega) _).other (by omega) _).other (by omega) _).other (by omega) _) (Below.refl _ _).drew) 0 rfl
      have x51 : ∀ v0 v1 v2 v3 v4 v5 v6 : Value, (((((((wc.setCell ⟨w.heap.size + 2, 0, none⟩ v0).setCell ⟨w.heap.size + 2, 1, none⟩ v1).setCell ⟨w.heap.size + 2, 2, none⟩ v2).setCell ⟨w.heap.size + 2, 3, none⟩ v3).setCell ⟨w.heap.size + 2, 4, none⟩ v4).setCell ⟨w.heap.size + 3, 0, none⟩ v5).setCell ⟨w.heap.size + 3, 1, none⟩ v6).drew.cell? ⟨b5, 1, none⟩ = some (.slice d' m' cd') := fun v0 v1 v2 v3 v4 v5 v6 => BoxN.cell (BoxN.stays (((((((BoxN.other HD.out.q5 (by omega) _).other (by omega) _).other (by omega) _).other (by omega) _).other (by omega) _).other (by omega) _).other (by omega) _) (Below.refl _ _).drew) 1 rfl
      have x52 : ∀ v0 v1 v2 v3 v4 v5 v6 : Value, (((((((wc.setCell ⟨w.heap.size + 2, 0, none⟩ v0).setCell ⟨w.heap.size + 2, 1, none⟩ v1).setCell ⟨w.heap.size + 2, 2, none⟩ v2).setCell ⟨w.heap.size + 2, 3, none⟩ v3).setCell ⟨w.heap.size + 2, 4, none⟩ v4).setCell ⟨w.heap.size + 3, 0, none⟩ v5).setCell ⟨w.heap.size + 3, 1, none⟩ v6).drew.cell? ⟨b5, 2, none⟩ = some (.int .i64 ep') := fun v0 v1 v2 v3 v4 v5 v6 => BoxN.cell (BoxN.stays (((((((BoxN.other HD.out.q5 (by omega) _).other (by omega) _).other (by omega) _).other (by omega) _).other (by omega) _).other (by omega) _).other (by omega) _) (Below.refl _ _).drew) 2 rfl
      have x53 : ∀ v0 v1 v2 v3 v4 v5 v6 : Value, (((((((wc.setCell ⟨w.heap.size + 2, 0, none⟩ v0).setCell ⟨w.heap.size + 2, 1, none⟩ v1).setCell ⟨w.heap.size + 2, 2, none⟩ v2).setCell ⟨w.heap.size + 2, 3, none⟩ v3).setCell ⟨w.heap.size + 2, 4, none⟩ v4).setCell ⟨w.heap.size + 3, 0, none⟩ v5).setCell ⟨w.heap.size + 3, 1, none⟩ v6).drew.cell? ⟨b5, 3, none⟩ = some (.int .i64 mx) := fun v0 v1 v2 v3 v4 v5 v6 => BoxN.cell (BoxN.stays (((((((BoxN.other HD.out.q5 (by omega) _).other (by omega) _).other (by omega) _).other (by omega) _).other (by omega) _).other (by omega) _).other (by omega) _) (Below.refl _ _).drew) 3 rfl
      have x54 : ∀ v0 v1 v2 v3 v4 v5 v6 : Value, (((((((wc.setCell ⟨w.heap.size + 2, 0, none⟩ v0).setCell ⟨w.heap.size + 2, 1, none⟩ v1).setCell ⟨w.heap.size + 2, 2, none⟩ v2).setCell ⟨w.heap.size + 2, 3, none⟩ v3).setCell ⟨w.heap.size + 2, 4, none⟩ v4).setCell ⟨w.heap.size + 3, 0, none⟩ v5).setCell ⟨w.heap.size + 3, 1, none⟩ v6).drew.cell? ⟨b5, 4, none⟩ = some (.slice va vn vc) := fun v0 v1 v2 v3 v4 v5 v6 => BoxN.cell (BoxN.stays (((((((BoxN.other HD.out.q5 (by omega) _).other (by omega) _).other (by omega) _).other (by omega) _).other (by omega) _).other (by omega) _).other (by omega) _) (Below.refl _ _).drew) 4 rfl
      have t40 : ∀ v0 v1 v2 v3 v4 : Value, (((((wc.setCell ⟨w.heap.size + 2, 0, none⟩ v0).setCell ⟨w.heap.size + 2, 1, none⟩ v1).setCell ⟨w.heap.size + 2, 2, none⟩ v2).setCell ⟨w.heap.size + 2, 3, none⟩ v3).setCell ⟨w.heap.size + 2, 4, none⟩ v4).drew.cell? ⟨b4, 0, none⟩ = some (.int .i64 st) := fun v0 v1 v2 v3 v4 => BoxN.cell (BoxN.stays (((((BoxN.other HD.out.q4 (by omega) _).other (by omega) _).other (by omega) _).other (by omega) _).other (by omega) _) (Below.refl _ _).drew) 0 rfl
      have t41 : ∀ v0 v1 v2 v3 v4 : Value, (((((wc.setCell ⟨w.heap.size + 2, 0, none⟩ v0).setCell ⟨w.heap.size + 2, 1, none⟩ v1).setCell ⟨w.heap.size + 2, 2, none⟩ v2).setCell ⟨w.heap.size + 2, 3, none⟩ v3).setCell ⟨w.heap.size + 2, 4, none⟩ v4).drew.cell? ⟨b4, 1, none⟩ = some (.int .i64 off) := fun v0 v1 v2 v3 v4 => BoxN.cell (BoxN.stays (((((BoxN.other HD.out.q4 (by omega) _).other (by omega) _).other (by omega) _).other (by omega) _).other (by omega) _) (Below.refl _ _).drew) 1 rfl
      have x40 : ∀ v0 v1 v2 v3 v4 v5 v6 : Value, (((((((wc.setCell ⟨w.heap.size + 2, 0, none⟩ v0).setCell ⟨w.heap.size + 2, 1, none⟩ v1).setCell ⟨w.heap.size + 2, 2, none⟩ v2).setCell ⟨w.heap.size + 2, 3, none⟩ v3).setCell ⟨w.heap.size + 2, 4, none⟩ v4).setCell ⟨w.heap.size + 3, 0, none⟩ v5).setCell ⟨w.heap.size + 3, 1, none⟩ v6).drew.cell? ⟨b4, 0, none⟩ = some (.int .i64 st) := fun v0 v1 v2 v3 v4 v5 v6 => BoxN.cell (BoxN.stays (((((((BoxN.other HD.out.q4 (by omega) _).other (by omega) _).other (by omega) _).other (by omega) _).other (by omega) _).other (by omega) _).other (by omega) _) (Below.refl _ _).drew) 0 rfl
      have x41 : ∀ v0 v1 v2 v3 v4 v5 v6 : Value, (((((((wc.setCell ⟨w.heap.size + 2, 0, none⟩ v0).setCell ⟨w.heap.size + 2, 1, none⟩ v1).setCell ⟨w.heap.size + 2, 2, none⟩ v2).setCell ⟨w.heap.size + 2, 3, none⟩ v3).setCell ⟨w.heap.size + 2, 4, none⟩ v4).setCell ⟨w.heap.size + 3, 0, none⟩ v5).setCell ⟨w.heap.size + 3, 1, none⟩ v6).drew.cell? ⟨b4, 1, none⟩ = some (.int .i64 off) := fun v0 v1 v2 v3 v4 v5 v6 => BoxN.cell (BoxN.stays (((((((BoxN.other HD.out.q4 (by omega) _).other (by omega) _).other (by omega) _).other (by omega) _).other (by omega) _).other (by omega) _).other (by omega) _) (Below.refl _ _).drew) 1 rfl
      have k20 := BoxN.cell HDd.out.q2 0 rfl
      have f20 := BoxN.frozen HDd.out.q2 0
      have k21 := BoxN.cell HDd.out.q2 1 rfl
      have f21 := BoxN.frozen HDd.out.q2 1
      have k22 := BoxN.cell HDd.out.q2 2 rfl
      have f22 := BoxN.frozen HDd.out.q2 2
      have k23 := BoxN.cell HDd.out.q2 3 rfl
      have f23 := BoxN.frozen HDd.out.q2 3
      have k24 := BoxN.cell HDd.out.q2 4 rfl
      have f24 := BoxN.frozen HDd.out.q2 4
      have k30 := BoxN.cell HDd.out.q3 0 rfl
      have f30 := BoxN.frozen HDd.out.q3 0
      have k31 := BoxN.cell HDd.out.q3 1 rfl
      have f31 := BoxN.frozen HDd.out.q3 1
      have kk20 := BoxN.cell HD.out.q2 0 rfl
      have ff20 := BoxN.frozen HD.out.q2 0
      have kk21 := BoxN.cell HD.out.q2 1 rfl
      have ff21 := BoxN.frozen HD.out.q2 1
      have kk22 := BoxN.cell HD.out.q2 2 rfl
      have ff22 := BoxN.frozen HD.out.q2 2
      have kk23 := BoxN.cell HD.out.q2 3 rfl
      have ff23 := BoxN.frozen HD.out.q2 3
      have kk24 := BoxN.cell HD.out.q2 4 rfl
      have ff24 := BoxN.frozen HD.out.q2 4
      have kk30 := BoxN.cell HD.out.q3 0 rfl
      have ff30 := BoxN.frozen HD.out.q3 0
      have kk31 := BoxN.cell HD.out.q3 1 rfl
      have ff31 := BoxN.frozen HD.out.q3 1
      go_region_held3 (fun W => W.cell? ⟨b5, 0, none⟩ = some (.slice d m cd) ∧ W.cell? ⟨b5, 1, none⟩ = some (.slice d' m' cd') ∧ W.cell? ⟨b5, 2, none⟩ = some (.int .i64 ep') ∧ W.cell? ⟨b5, 3, none⟩ = some (.int .i64 mx) ∧ W.cell? ⟨b5, 4, none⟩ = some (.slice va vn vc) ∧ W.cell? ⟨b4, 0, none⟩ = some (.int .i64 st) ∧ W.cell? ⟨b4, 1, none⟩ = some (.int .i64 off)) (first | with_reducible exact ⟨g50, g51, g52, g53, g54, g40, g41⟩ | with_reducible exact ⟨t50 _ _ _ _ _, t51 _ _ _ _ _, t52 _ _ _ _ _, t53 _ _ _ _ _, t54 _ _ _ _ _, t40 _ _ _ _ _, t41 _ _ _ _ _⟩ | with_reducible exact ⟨x50 _ _ _ _ _ _ _, x51 _ _ _ _ _ _ _, x52 _ _ _ _ _ _ _, x53 _ _ _ _ _ _ _, x54 _ _ _ _ _ _ _, x40 _ _ _ _ _ _ _, x41 _ _ _ _ _ _ _⟩ | fail) (first
        | fail)
      all_goals
        have HF := (show Hid _ from (DoV.done HD.out st off))
        clear g50 g51 g52 g53 g54 g40 g41 t50 t51 t52 t53 t54 t40 t41 x50 x51 x52 x53 x54 x40 x41 HDd HD
        go_wp2_with fail
        refine bodyPost_ret (v := .tuple #[.agg #[.slice d m cd, .slice d' m' cd', .int .i64 ep', .int .i64 mx, .slice va vn vc], .agg #[.int .i64 st, .int .i64 off]]) (by simp [results, Tryz.f59, go_sem, kk20, kk21, kk22, kk23, kk24, kk30, kk31]) rfl ?_
        exact ⟨⟨_, _, _, rfl, DrawnS.stays HF.out.1 (Below.refl _ _).drew, HR.out (by first | rfl | trivial)⟩, Below.drew HF.out.2⟩
    · have hcb : (c == 0) = false := by simpa using hc
      go_upto_region 18 with fail
      clear HD HR
      have hl4 := HDd.out.l4
      have hl5 := HDd.out.l5
      have g50 := BoxN.cell HDd.out.q5 0 rfl
      have g51 := BoxN.cell HDd.out.q5 1 rfl
      have g52 := BoxN.cell HDd.out.q5 2 rfl
      have g53 := BoxN.cell HDd.out.q5 3 rfl
      have g54 := BoxN.cell HDd.out.q5 4 rfl
      have g00 := BoxN.cell HDd.out.q0 0 rfl
      have g01 := BoxN.cell HDd.out.q0 1 rfl
      have g02 := BoxN.cell HDd.out.q0 2 rfl
      have g03 := BoxN.cell HDd.out.q0 3 rfl
      have g04 := BoxN.cell HDd.out.q0 4 rfl
      have g11 := BoxN.cell HDd.out.q1 1 rfl
      go_region_held3 (fun W => W.cell? ⟨b5, 0, none⟩ = some (.slice d m cd) ∧ W.cell? ⟨b5, 1, none⟩ = some (.slice d' m' cd') ∧ W.cell? ⟨b5, 2, none⟩ = some (.int .i64 ep') ∧ W.cell? ⟨b5, 3, none⟩ = some (.int .i64 mx) ∧ W.cell? ⟨b5, 4, none⟩ = some (.slice va vn vc) ∧ W.cell? ⟨w.heap.size, 0, none⟩ = some (.slice a n ca) ∧ W.cell? ⟨w.heap.size, 1, none⟩ = some (.slice a' n' ca') ∧ W.cell? ⟨w.heap.size, 2, none⟩ = some (.int .i64 ep) ∧ W.cell? ⟨w.heap.size, 3, none⟩ = some (.int .i64 nx) ∧ W.cell? ⟨w.heap.size, 4, none⟩ = some (.slice ua un uc) ∧ W.cell? ⟨w.heap.size + 1, 1, none⟩ = some (.string id)) (first | with_reducible exact ⟨g50, g51, g52, g53, g54, g00, g01, g02, g03, g04, g11⟩ | with_reducible exact ⟨m50, m51, m52, m53, m54, m00, m01, m02, m03, m04, m11⟩ | with_reducible exact ⟨t50 _ _ _ _ _, t51 _ _ _ _ _, t52 _ _ _ _ _, t53 _ _ _ _ _, t54 _ _ _ _ _, t00 _ _ _ _ _, t01 _ _ _ _ _, t02 _ _ _ _ _, t03 _ _ _ _ _, t04 _ _ _ _ _, t11 _ _ _ _ _⟩ | with_reducible exact ⟨x50 _ _ _ _ _ _ _, x51 _ _ _ _ _ _ _, x52 _ _ _ _ _ _ _, x53 _ _ _ _ _ _ _, x54 _ _ _ _ _ _ _, x00 _ _ _ _ _ _ _, x01 _ _ _ _ _ _ _, x02 _ _ _ _ _ _ _, x03 _ _ _ _ _ _ _, x04 _ _ _ _ _ _ _, x11 _ _ _ _ _ _ _⟩ | fail) (first
        | (go_at_call 88; refine (HBd.out wc.drew c HDd.out.below).mono ?_; rintro e y ⟨s2, o2, rfl, hr, hby⟩
           have HDy := (show Hid _ from DoV.stays HDd.out hby)
           have m50 := BoxN.cell HDy.out.q5 0 rfl
           have m51 := BoxN.cell HDy.out.q5 1 rfl
           have m52 := BoxN.cell HDy.out.q5 2 rfl
           have m53 := BoxN.cell HDy.out.q5 3 rfl
           have m54 := BoxN.cell HDy.out.q5 4 rfl
           have m00 := BoxN.cell HDy.out.q0 0 rfl
           have m01 := BoxN.cell HDy.out.q0 1 rfl
           have m02 := BoxN.cell HDy.out.q0 2 rfl
           have m03 := BoxN.cell HDy.out.q0 3 rfl
           have m04 := BoxN.cell HDy.out.q0 4 rfl
           have m11 := BoxN.cell HDy.out.q1 1 rfl
           have t50 : ∀ v0 v1 v2 v3 v4 : Value, (((((y.setCell ⟨w.heap.size + 2, 0, none⟩ v0).setCell ⟨w.heap.size + 2, 1, none⟩ v1).setCell ⟨w.heap.size + 2, 2, none⟩ v2).setCell ⟨w.heap.size + 2, 3, none⟩ v3).setCell ⟨w.heap.size + 2, 4, none⟩ v4).cell? ⟨b5, 0, none⟩ = some (.slice d m cd) := fun v0 v1 v2 v3 v4 => BoxN.cell (((((BoxN.other HDy.out.q5 (by omega) _).other (by omega) _).other (by omega) _).other (by omega) _).other (by omega) _) 0 rfl
           have t51 : ∀ v0 v1 v2 v3 v4 : Value, (((((y.setCell ⟨w.heap.size + 2, 0, none⟩ v0).setCell ⟨w.heap.size + 2, 1, none⟩ v1).setCell ⟨w.heap.size + 2, 2, none⟩ v2).setCell ⟨w.heap.size + 2, 3, none⟩ v3).setCell ⟨w.heap.size + 2, 4, none⟩ v4).cell? ⟨b5, 1, none⟩ = some (.slice d' m' cd') := fun v0 v1 v2 v3 v4 => BoxN.cell (((((BoxN.other HDy.out.q5 (by omega) _).other (by omega) _).other (by omega) _).other (by omega) _).other (by omega) _) 1 rfl
           have t52 : ∀ v0 v1 v2 v3 v4 : Value, (((((y.setCell ⟨w.heap.size + 2, 0, none⟩ v0).setCell ⟨w.heap.size + 2, 1, none⟩ v1).setCell ⟨w.heap.size + 2, 2, none⟩ v2).setCell ⟨w.heap.size + 2, 3, none⟩ v3).setCell ⟨w.heap.size + 2, 4, none⟩ v4).cell? ⟨b5, 2, none⟩ = some (.int .i64 ep') := fun v0 v1 v2 v3 v4 => BoxN.cell (((((BoxN.other HDy.out.q5 (by omega) _).other (by omega) _).other (by omega) _).other (by omega) _).other (by omega) _) 2 rfl
           have t53 : ∀ v0 v1 v2 v3 v4 : Value, (((((y.setCell ⟨w.heap.size + 2, 0, none⟩ v0).setCell ⟨w.heap.size + 2, 1, none⟩ v1).setCell ⟨w.heap.size + 2, 2, none⟩ v2).setCell ⟨w.heap.size + 2, 3, none⟩ v3).setCell ⟨w.heap.size + 2, 4, none⟩ v4).cell? ⟨b5, 3, none⟩ = some (.int .i64 mx) := fun v0 v1 v2 v3 v4 => BoxN.cell (((((BoxN.other HDy.out.q5 (by omega) _).other (by omega) _).other (by omega) _).other (by omega) _).other (by omega) _) 3 rfl
           have t54 : ∀ v0 v1 v2 v3 v4 : Value, (((((y.setCell ⟨w.heap.size + 2, 0, none⟩ v0).setCell ⟨w.heap.size + 2, 1, none⟩ v1).setCell ⟨w.heap.size + 2, 2, none⟩ v2).setCell ⟨w.heap.size + 2, 3, none⟩ v3).setCell ⟨w.heap.size + 2, 4, none⟩ v4).cell? ⟨b5, 4, none⟩ = some (.slice va vn vc) := fun v0 v1 v2 v3 v4 => BoxN.cell (((((BoxN.other HDy.out.q5 (by omega) _).other (by omega) _).other (by omega) _).other (by omega) _).other (by omega) _) 4 rfl
           have x50 : ∀ v0 v1 v2 v3 v4 v5 v6 : Value, (((((((y.setCell ⟨w.heap.size + 2, 0, none⟩ v0).setCell ⟨w.heap.size + 2, 1, none⟩ v1).setCell ⟨w.heap.size + 2, 2, none⟩ v2).setCell ⟨w.heap.size + 2, 3, none⟩ v3).setCell ⟨w.heap.size + 2, 4, none⟩ v4).setCell ⟨w.heap.size + 3, 0, none⟩ v5).setCell ⟨w.heap.size + 3, 1, none⟩ v6).cell? ⟨b5, 0, none⟩ = some (.slice d m cd) := fun v0 v1 v2 v3 v4 v5 v6 => BoxN.cell (((((((BoxN.other HDy.out.q5 (by omega) _).other (by omega) _).other (by omega) _).other (by omega) _).other (by omega) _).other (by omega) _).other (by omega) _) 0 rfl
           have x51 : ∀ v0 v1 v2 v3 v4 v5 v6 : Value, (((((((y.setCell ⟨w.heap.size + 2, 0, none⟩ v0).setCell ⟨w.heap.size + 2, 1, none⟩ v1).setCell ⟨w.heap.size + 2, 2, none⟩ v2).setCell ⟨w.heap.size + 2, 3, none⟩ v3).setCell ⟨w.heap.size + 2, 4, none⟩ v4).setCell ⟨w.heap.size + 3, 0, none⟩ v5).setCell ⟨w.heap.size + 3, 1, none⟩ v6).cell? ⟨b5, 1, none⟩ = some (.slice d' m' cd') := fun v0 v1 v2 v3 v4 v5 v6 => BoxN.cell (((((((BoxN.other HDy.out.q5 (by omega) _).other (by omega) _).other (by omega) _).other (by omega) _).other (by omega) _).other (by omega) _).other (by omega) _) 1 rfl
           have x52 : ∀ v0 v1 v2 v3 v4 v5 v6 : Value, (((((((y.setCell ⟨w.heap.size + 2, 0, none⟩ v0).setCell ⟨w.heap.size + 2, 1, none⟩ v1).setCell ⟨w.heap.size + 2, 2, none⟩ v2).setCell ⟨w.heap.size + 2, 3, none⟩ v3).setCell ⟨w.heap.size + 2, 4, none⟩ v4).setCell ⟨w.heap.size + 3, 0, none⟩ v5).setCell ⟨w.heap.size + 3, 1, none⟩ v6).cell? ⟨b5, 2, none⟩ = some (.int .i64 ep') := fun v0 v1 v2 v3 v4 v5 v6 => BoxN.cell (((((((BoxN.other HDy.out.q5 (by omega) _).other (by omega) _).other (by omega) _).other (by omega) _).other (by omega) _).other (by omega) _).other (by omega) _) 2 rfl
           have x53 : ∀ v0 v1 v2 v3 v4 v5 v6 : Value, (((((((y.setCell ⟨w.heap.size + 2, 0, none⟩ v0).setCell ⟨w.heap.size + 2, 1, none⟩ v1).setCell ⟨w.heap.size + 2, 2, none⟩ v2).setCell ⟨w.heap.size + 2, 3, none⟩ v3).setCell ⟨w.heap.size + 2, 4, none⟩ v4).setCell ⟨w.heap.size + 3, 0, none⟩ v5).setCell ⟨w.heap.size + 3, 1, none⟩ v6).cell? ⟨b5, 3, none⟩ = some (.int .i64 mx) := fun v0 v1 v2 v3 v4 v5 v6 => BoxN.cell (((((((BoxN.other HDy.out.q5 (by omega) _).other (by omega) _).other (by omega) _).other (by omega) _).other (by omega) _).other (by omega) _).other (by omega) _) 3 rfl
           have x54 : ∀ v0 v1 v2 v3 v4 v5 v6 : Value, (((((((y.setCell ⟨w.heap.size + 2, 0, none⟩ v0).setCell ⟨w.heap.size + 2, 1, none⟩ v1).setCell ⟨w.heap.size + 2, 2, none⟩ v2).setCell ⟨w.heap.size + 2, 3, none⟩ v3).setCell ⟨w.heap.size + 2, 4, none⟩ v4).setCell ⟨w.heap.size + 3, 0, none⟩ v5).setCell ⟨w.heap.size + 3, 1, none⟩ v6).cell? ⟨b5, 4, none⟩ = some (.slice va vn vc) := fun v0 v1 v2 v3 v4 v5 v6 => BoxN.cell (((((((BoxN.other HDy.out.q5 (by omega) _).other (by omega) _).other (by omega) _).other (by omega) _).other (by omega) _).other (by omega) _).other (by omega) _) 4 rfl
           have t00 : ∀ v0 v1 v2 v3 v4 : Value, (((((y.setCell ⟨w.heap.size + 2, 0, none⟩ v0).setCell ⟨w.heap.size + 2, 1, none⟩ v1).setCell ⟨w.heap.size + 2, 2, none⟩ v2).setCell ⟨w.heap.size + 2, 3, none⟩ v3).setCell ⟨w.heap.size + 2, 4, none⟩ v4).cell? ⟨w.heap.size, 0, none⟩ = some (.slice a n ca) := fun v0 v1 v2 v3 v4 => BoxN.cell (((((BoxN.other HDy.out.q0 (by omega) _).other (by omega) _).other (by omega) _).other (by omega) _).other (by omega) _) 0 rfl
           have t01 : ∀ v0 v1 v2 v3 v4 : Value, (((((y.setCell ⟨w.heap.size + 2, 0, none⟩ v0).setCell ⟨w.heap.size + 2, 1, none⟩ v1).setCell ⟨w.heap.size + 2, 2, none⟩ v2).setCell ⟨w.heap.size + 2, 3, none⟩ v3).setCell ⟨w.heap.size + 2, 4, none⟩ v4).cell? ⟨w.heap.size, 1, none⟩ = some (.slice a' n' ca') := fun v0 v1 v2 v3 v4 => BoxN.cell (((((BoxN.other HDy.out.q0 (by omega) _).other (by omega) _).other (by omega) _).other (by omega) _).other (by omega) _) 1 rfl
           have t02 : ∀ v0 v1 v2 v3 v4 : Value, (((((y.setCell ⟨w.heap.size + 2, 0, none⟩ v0).setCell ⟨w.heap.size + 2, 1, none⟩ v1).setCell ⟨w.heap.size + 2, 2, none⟩ v2).setCell ⟨w.heap.size + 2, 3, none⟩ v3).setCell ⟨w.heap.size + 2, 4, none⟩ v4).cell? ⟨w.heap.size, 2, none⟩ = some (.int .i64 ep) := fun v0 v1 v2 v3 v4 => BoxN.cell (((((BoxN.other HDy.out.q0 (by omega) _).other (by omega) _).other (by omega) _).other (by omega) _).other (by omega) _) 2 rfl
           have t03 : ∀ v0 v1 v2 v3 v4 : Value, (((((y.setCell ⟨w.heap.size + 2, 0, none⟩ v0).setCell ⟨w.heap.size + 2, 1, none⟩ v1).setCell ⟨w.heap.size + 2, 2, none⟩ v2).setCell ⟨w.heap.size + 2, 3, none⟩ v3).setCell ⟨w.heap.size + 2, 4, none⟩ v4).cell? ⟨w.heap.size, 3, none⟩ = some (.int .i64 nx) := fun v0 v1 v2 v3 v4 => BoxN.cell (((((BoxN.other HDy.out.q0 (by omega) _).other (by omega) _).other (by omega) _).other (by omega) _).other (by omega) _) 3 rfl
           have t04 : ∀ v0 v1 v2 v3 v4 : Value, (((((y.setCell ⟨w.heap.size + 2, 0, none⟩ v0).setCell ⟨w.heap.size + 2, 1, none⟩ v1).setCell ⟨w.heap.size + 2, 2, none⟩ v2).setCell ⟨w.heap.size + 2, 3, none⟩ v3).setCell ⟨w.heap.size + 2, 4, none⟩ v4).cell? ⟨w.heap.size, 4, none⟩ = some (.slice ua un uc) := fun v0 v1 v2 v3 v4 => BoxN.cell (((((BoxN.other HDy.out.q0 (by omega) _).other (by omega) _).other (by omega) _).other (by omega) _).other (by omega) _) 4 rfl
           have x00 : ∀ v0 v1 v2 v3 v4 v5 v6 : Value, (((((((y.setCell ⟨w.heap.size + 2, 0, none⟩ v0).setCell ⟨w.heap.size + 2, 1, none⟩ v1).setCell ⟨w.heap.size + 2, 2, none⟩ v2).setCell ⟨w.heap.size + 2, 3, none⟩ v3).setCell ⟨w.heap.size + 2, 4, none⟩ v4).setCell ⟨w.heap.size + 3, 0, none⟩ v5).setCell ⟨w.heap.size + 3, 1, none⟩ v6).cell? ⟨w.heap.size, 0, none⟩ = some (.slice a n ca) := fun v0 v1 v2 v3 v4 v5 v6 => BoxN.cell (((((((BoxN.other HDy.out.q0 (by omega) _).other (by omega) _).other (by omega) _).other (by omega) _).other (by omega) _).other (by omega) _).other (by omega) _) 0 rfl
           have x01 : ∀ v0 v1 v2 v3 v4 v5 v6 : Value, (((((((y.setCell ⟨w.heap.size + 2, 0, none⟩ v0).setCell ⟨w.heap.size + 2, 1, none⟩ v1).setCell ⟨w.heap.size + 2, 2, none⟩ v2).setCell ⟨w.heap.size + 2, 3, none⟩ v3).setCell ⟨w.heap.size + 2, 4, none⟩ v4).setCell ⟨w.heap.size + 3, 0, none⟩ v5).setCell ⟨w.heap.size + 3, 1, none⟩ v6).cell? ⟨w.heap.size, 1, none⟩ = some (.slice a' n' ca') := fun v0 v1 v2 v3 v4 v5 v6 => BoxN.cell (((((((BoxN.other HDy.out.q0 (by omega) _).other (by omega) _).other (by omega) _).other (by omega) _).other (by omega) _).other (by omega) _).other (by omega) _) 1 rfl
           have x02 : ∀ v0 v1 v2 v3 v4 v5 v6 : Value, (((((((y.setCell ⟨w.heap.size + 2, 0, none⟩ v0).setCell ⟨w.heap.size + 2, 1, none⟩ v1).setCell ⟨w.heap.size + 2, 2, none⟩ v2).setCell ⟨w.heap.size + 2, 3, none⟩ v3).setCell ⟨w.heap.size + 2, 4, none⟩ v4).setCell ⟨w.heap.size + 3, 0, none⟩ v5).setCell ⟨w.heap.size + 3, 1, none⟩ v6).cell? ⟨w.heap.size, 2, none⟩ = some (.int .i64 ep) := fun v0 v1 v2 v3 v4 v5 v6 => BoxN.cell (((((((BoxN.other HDy.out.q0 (by omega) _).other (by omega) _).other (by omega) _).other (by omega) _).other (by omega) _).other (by omega) _).other (by omega) _) 2 rfl
           have x03 : ∀ v0 v1 v2 v3 v4 v5 v6 : Value, (((((((y.setCell ⟨w.heap.size + 2, 0, none⟩ v0).setCell ⟨w.heap.size + 2, 1, none⟩ v1).setCell ⟨w.heap.size + 2, 2, none⟩ v2).setCell ⟨w.heap.size + 2, 3, none⟩ v3).setCell ⟨w.heap.size + 2, 4, none⟩ v4).setCell ⟨w.heap.size + 3, 0, none⟩ v5).setCell ⟨w.heap.size + 3, 1, none⟩ v6).cell? ⟨w.heap.size, 3, none⟩ = some (.int .i64 nx) := fun v0 v1 v2 v3 v4 v5 v6 => BoxN.cell (((((((BoxN.other HDy.out.q0 (by omega) _).other (by omega) _).other (by omega) _).other (by omega) _).other (by omega) _).other (by omega) _).other (by omega) _) 3 rfl
           have x04 : ∀ v0 v1 v2 v3 v4 v5 v6 : Value, (((((((y.setCell ⟨w.heap.size + 2, 0, none⟩ v0).setCell ⟨w.heap.size + 2, 1, none⟩ v1).setCell ⟨w.heap.size + 2, 2, none⟩ v2).setCell ⟨w.heap.size + 2, 3, none⟩ v3).setCell ⟨w.heap.size + 2, 4, none⟩ v4).setCell ⟨w.heap.size + 3, 0, none⟩ v5).setCell ⟨w.heap.size + 3, 1, none⟩ v6).cell? ⟨w.heap.size, 4, none⟩ = some (.slice ua un uc) := fun v0 v1 v2 v3 v4 v5 v6 => BoxN.cell (((((((BoxN.other HDy.out.q0 (by omega) _).other (by omega) _).other (by omega) _).other (by omega) _).other (by omega) _).other (by omega) _).other (by omega) _) 4 rfl
           have t11 : ∀ v0 v1 v2 v3 v4 : Value, (((((y.setCell ⟨w.heap.size + 2, 0, none⟩ v0).setCell ⟨w.heap.size + 2, 1, none⟩ v1).setCell ⟨w.heap.size + 2, 2, none⟩ v2).setCell ⟨w.heap.size + 2, 3, none⟩ v3).setCell ⟨w.heap.size + 2, 4, none⟩ v4).cell? ⟨w.heap.size + 1, 1, none⟩ = some (.string id) := fun v0 v1 v2 v3 v4 => BoxN.cell (((((BoxN.other HDy.out.q1 (by omega) _).other (by omega) _).other (by omega) _).other (by omega) _).other (by omega) _) 1 rfl
           have x11 : ∀ v0 v1 v2 v3 v4 v5 v6 : Value, (((((((y.setCell ⟨w.heap.size + 2, 0, none⟩ v0).setCell ⟨w.heap.size + 2, 1, none⟩ v1).setCell ⟨w.heap.size + 2, 2, none⟩ v2).setCell ⟨w.heap.size + 2, 3, none⟩ v3).setCell ⟨w.heap.size + 2, 4, none⟩ v4).setCell ⟨w.heap.size + 3, 0, none⟩ v5).setCell ⟨w.heap.size + 3, 1, none⟩ v6).cell? ⟨w.heap.size + 1, 1, none⟩ = some (.string id) := fun v0 v1 v2 v3 v4 v5 v6 => BoxN.cell (((((((BoxN.other HDy.out.q1 (by omega) _).other (by omega) _).other (by omega) _).other (by omega) _).other (by omega) _).other (by omega) _).other (by omega) _) 1 rfl
           have k20 := BoxN.cell HDy.out.q2 0 rfl
           have f20 := BoxN.frozen HDy.out.q2 0
           have k21 := BoxN.cell HDy.out.q2 1 rfl
           have f21 := BoxN.frozen HDy.out.q2 1
           have k22 := BoxN.cell HDy.out.q2 2 rfl
           have f22 := BoxN.frozen HDy.out.q2 2
           have k23 := BoxN.cell HDy.out.q2 3 rfl
           have f23 := BoxN.frozen HDy.out.q2 3
           have k24 := BoxN.cell HDy.out.q2 4 rfl
           have f24 := BoxN.frozen HDy.out.q2 4
           have k30 := BoxN.cell HDy.out.q3 0 rfl
           have f30 := BoxN.frozen HDy.out.q3 0
           have k31 := BoxN.cell HDy.out.q3 1 rfl
           have f31 := BoxN.frozen HDy.out.q3 1)
        | fail)
      all_goals
        have HF := (show Hid _ from (DoV.done HDy.out s2 o2))
        clear g50 g51 g52 g53 g54 g00 g01 g02 g03 g04 g11 m50 m51 m52 m53 m54 m00 m01 m02 m03 m04 m11 t50 t51 t52 t53 t54 t00 t01 t02 t03 t04 t11 x50 x51 x52 x53 x54 x00 x01 x02 x03 x04 x11 HDd HDy hby HBd
        go_wp2_with fail
        refine bodyPost_ret (v := .tuple #[.agg #[.slice d m cd, .slice d' m' cd', .int .i64 ep', .int .i64 mx, .slice va vn vc], .agg #[.int .i64 s2, .int .i64 o2]]) (by simp [results, Tryz.f59, go_sem, k20, k21, k22, k23, k24, k30, k31]) rfl ?_
        exact ⟨⟨_, _, _, rfl, HF.out.1, hr⟩, HF.out.2⟩

end Go.Proofs.YtlkgopoicpnacaaGreatDoor

namespace Go.Proofs.YtlkgopoicpnacaaGreatDoor
open Go.RowKit
set_option linter.unusedVariables false

theorem cell_of_strs {w : World} {g : Nat} {L : List ByteArray} (h : w.heap[g]? = some (.cells (L.map Value.string).toArray 9 (0, 0))) (k : Nat) (hk : k < L.length) : w.cell? ⟨g, k, none⟩ = some (.string (L[k]'hk)) := by
  rw [cell_of_row w g k _ 9 (0, 0) h]
  simp [hk]

set_option maxRecDepth 10000 in
set_option maxHeartbeats 400000 in
theorem l1Str_any (B c : Nat) (a : Option Addr) (len cap : Nat) (zs : List Int) (g n cp : Nat) (L : List ByteArray) (w : World) (hcur : Cur w B c a len cap zs) (hl : len ≤ 1099511627776)
    (hL : w.heap[g]? = some (.cells (L.map Value.string).toArray 9 (0, 0))) (hgc : g ≠ c) (hn : L.length = n) (h1 : 1 ≤ n) (h2 : n ≤ 256) :
    Calls Tryz.prog 54 #[.pointer (some ⟨c, 0, none⟩), .slice (some ⟨g, 0, none⟩) n cp] w fun e w' => ∃ v : ByteArray, e = .returned (.string v) ∧ v ∈ L ∧ Cur w' B c a len cap zs ∧ w.grownBy w' (some c) := by
  have HC : Hid _ := hcur
  have HL : Hid _ := hL
  have HN : Hid (L.length = n) := hn
  clear hcur hL hn
  have hi1 : (1 : Int) ≤ (n : Int) := by omega
  have hi2 : (n : Int) ≤ 1000000 := by omega
  have hglt : g < w.heap.size := by
    by_cases hk : g < w.heap.size
    · exact hk
    · have := HL.out; rw [Array.getElem?_eq_none (by omega)] at this; cases this
  go_enter Tryz.func54, Tryz.ntmps54
  go_wp2_with fail
  refine (l1Below_any B c a len cap zs _ _ HC.out hl hi1 hi2).mono ?_
  rintro e w1 ⟨x, rfl, hx0, hx1, hc1, hg1⟩
  obtain ⟨k, rfl⟩ := Int.eq_ofNat_of_zero_le hx0
  have HC1 : Hid _ := hc1
  have HG1 : Hid _ := hg1
  have hkl : k < L.length := by have := HN.out; omega
  obtain ⟨v, hv⟩ : ∃ v, L[k] = v := ⟨_, rfl⟩
  have hcell : w1.cell? ⟨g, k, none⟩ = some (.string v) := by
    rw [← hv]
    refine cell_of_strs ?_ k hkl
    rw [hg1.block g hglt (fun e => hgc (Option.some.inj e))]
    exact HL.out
  have HV : Hid (v ∈ L) := by
    show v ∈ L
    rw [← hv]
    exact List.getElem_mem hkl
  clear hc1 hg1 hv
  go_wp2_with fail
  go_ret
  exact ⟨v, rfl, HV.out, HC1.out, HG1.out⟩

end Go.Proofs.YtlkgopoicpnacaaGreatDoor

namespace Go.Proofs.YtlkgopoicpnacaaGreatDoor
open Go.RowKit
set_option linter.unusedVariables false

set_option maxRecDepth 10000 in
set_option maxHeartbeats 400000 in
theorem l1Once_any (B c : Nat) (a : Option Addr) (len cap : Nat) (zs : List Int) (n : Int) (w : World) (hcur : Cur w B c a len cap zs) (hl : len ≤ 1099511627776) (hn1 : 1 ≤ n) (hn2 : n ≤ 1000000) :
    Calls Tryz.prog 21 #[.pointer (some ⟨c, 0, none⟩), .int .i64 n] w fun e w' => ∃ b : Bool, e = .returned (.bool b) ∧ Cur w' B c a len cap zs ∧ w.grownBy w' (some c) := by
  have HC : Hid _ := hcur
  clear hcur
  go_enter Tryz.func21, Tryz.ntmps21
  go_wp2_with fail
  refine (l1Below_any B c a len cap zs _ _ HC.out hl hn1 hn2).mono ?_
  rintro e w1 ⟨x, rfl, hx0, hx1, hc1, hg1⟩
  have HC1 : Hid _ := hc1
  have HG1 : Hid _ := hg1
  clear hc1 hg1
  go_wp2_with fail
  go_ret
  exact ⟨_, rfl, HC1.out, HG1.out⟩

end Go.Proofs.YtlkgopoicpnacaaGreatDoor

namespace Go.Proofs.YtlkgopoicpnacaaGreatDoor
open Go.RowKit
set_option linter.unusedVariables false

theorem specMost_any (op : Int) (w : World) : Calls Tryz.prog 79 #[.int .i64 op] w fun e w' => e = .returned (.int .i64 (mostR op)) ∧ w' = w := by
  by_cases h1 : op = 1
  · subst h1
    go_enter Tryz.func79, Tryz.ntmps79
    go_wp2
    go_ret
    exact ⟨rfl, rfl⟩
  by_cases h3 : op = 3
  · subst h3
    go_enter Tryz.func79, Tryz.ntmps79
    go_wp2
    go_ret
    exact ⟨rfl, rfl⟩
  by_cases h4 : op = 4
  · subst h4
    go_enter Tryz.func79, Tryz.ntmps79
    go_wp2
    go_ret
    exact ⟨rfl, rfl⟩
  have HM : Hid (mostR op = -1) := by show _ = _; rw [mostR, if_neg (by omega), if_neg h4]
  have k1 : (op == 1) = false := by simpa using h1
  have k3 : (op == 3) = false := by simpa using h3
  have k4 : (op == 4) = false := by simpa using h4
  rw [HM.out]
  go_enter Tryz.func79, Tryz.ntmps79
  go_wp2
  go_ret
  exact ⟨rfl, rfl⟩

set_option maxRecDepth 10000 in
set_option maxHeartbeats 800000 in
theorem specReqOk_any (op : Int) (s : ByteArray) (n : Int) (w : World) (hm : s.size ≤ 9223372036854775807) :
    Calls Tryz.prog 58 #[.agg #[.int .i64 op, .string s, .int .i64 n]] w fun e w' => e = .returned (.bool (reqB op s.data.toList n)) ∧ Below w.heap.size w w' := by
  have HR : Hid (reqB op s.data.toList n = (decide (1 ≤ op ∧ op ≤ 6) && idB s.data.toList && (if mostR op < 0 then n == 0 else decide (0 ≤ n ∧ n ≤ mostR op)))) := rfl
  have HB0 : Hid (Below w.heap.size w (w.alloc (.cells #[.int .i64 op, .string s, .int .i64 n] 74))) := (Below.refl _ _).alloc (Nat.le_refl _) _
  have HX0 : Hid (Box3 (w.alloc (.cells #[.int .i64 op, .string s, .int .i64 n] 74)) w.heap.size 74 (.int .i64 op) (.string s) (.int .i64 n)) := Box3.new _ _ _ _ _
  go_enter Tryz.func58, Tryz.ntmps58
  go_wp2_with fail
  obtain ⟨w1, hw1⟩ : ∃ w1, w.alloc (.cells #[.int .i64 op, .string s, .int .i64 n] 74) = w1 := ⟨_, rfl⟩
  rw [hw1] at HB0 HX0 ⊢
  clear hw1
  obtain ⟨c0, c1, c2⟩ := HX0.out.cells
  refine (l1In_any op 1 6 _).mono ?_
  rintro e w2 ⟨rfl, hw2⟩
  subst hw2
  generalize decide (1 ≤ op ∧ op ≤ 6) = b1 at *
  cases b1
  · go_wp2_with fail
    go_ret
    exact ⟨ret_bool (by rw [HR.out]; rfl), HB0.out⟩
  go_wp2_with fail
  refine (specId_any s _ hm).mono ?_
  rintro e w3 ⟨rfl, hw3⟩
  subst hw3
  generalize idB s.data.toList = b2 at *
  cases b2
  · go_wp2_with fail
    go_ret
    exact ⟨ret_bool (by rw [HR.out]; rfl), HB0.out⟩
  go_wp2_with fail
  refine (specMost_any op _).mono ?_
  rintro e w4 ⟨rfl, hw4⟩
  subst hw4
  generalize mostR op = m at *
  by_cases hm0 : m < 0
  · rw [if_pos hm0] at HR
    go_wp2_with fail
    go_ret
    exact ⟨ret_bool (by rw [HR.out]; rfl), HB0.out⟩
  · rw [if_neg hm0] at HR
    go_wp2_with fail
    refine (l1In_any n 0 m _).mono ?_
    rintro e w5 ⟨rfl, hw5⟩
    subst hw5
    generalize decide (0 ≤ n ∧ n ≤ m) = b3 at *
    go_wp2_with fail
    go_ret
    exact ⟨ret_bool (by rw [HR.out]; rfl), HB0.out⟩

end Go.Proofs.YtlkgopoicpnacaaGreatDoor
