/- Answers that wait: three numbers each; rows of them in memory, rows that a call has made. No statement of the program but its table of types. A server in memory: its store, and what waits, in rows of a call's own. No statement of the program but its table of types. A region that draws its order, whose operations only read and whose callees leave all that was there: walked once, in the order of the text. No program in it. The marks of a row of uploads, asked for. Marks of texts that are asked for. The marks of a disk, asked for. -/
import Derived.Test.YtemcjenpgdieoaaGreatDoorM01
import Derived.Test.YtemcjenpgdieoaaGreatDoorM06
import Derived.Deep.QuietTactic
import Derived.Deep.RegionWith
namespace Go.Proofs.YtemcjenpgdieoaaGreatDoor
open Go.RowKit
set_option linter.unusedVariables false

/-- To whom, the status, how much there is. -/
abbrev Hd := Int × Int × Int

/-- The cells of a row. -/
def heCells (l : List Hd) : List Value := l.flatMap fun s => [.int .i64 s.1, .int .i64 s.2.1, .int .i64 s.2.2]

theorem heCells_cons (s : Hd) (l : List Hd) : heCells (s :: l) = .int .i64 s.1 :: .int .i64 s.2.1 :: .int .i64 s.2.2 :: heCells l := rfl

theorem heCells_append (l m : List Hd) : heCells (l ++ m) = heCells l ++ heCells m := by simp [heCells]

theorem heCells_len (l : List Hd) : (heCells l).length = l.length * 3 := by
  induction l with
  | nil => rfl
  | cons f fs ih => rw [heCells_cons]; simp only [List.length_cons, ih]; omega

theorem heCells_at (l : List Hd) : ∀ i (hi : i < l.length), (heCells l)[i * 3]? = some (.int .i64 (l[i]).1) ∧ (heCells l)[i * 3 + 1]? = some (.int .i64 (l[i]).2.1) ∧ (heCells l)[i * 3 + 2]? = some (.int .i64 (l[i]).2.2) := by
  induction l with
  | nil => intro i hi; simp at hi
  | cons f fs ih =>
    intro i hi
    rw [heCells_cons]
    cases i with
    | zero => simp
    | succ i =>
      have := ih i (by simpa using hi)
      rw [show (i + 1) * 3 = i * 3 + 1 + 1 + 1 by omega]
      simpa using this

theorem heCells_one (l : List Hd) : ∀ u ∈ heCells l, u.oneCell' = true := by
  intro u hu
  simp only [heCells, List.mem_flatMap] at hu
  obtain ⟨f, _, hf⟩ := hu
  simp at hf
  rcases hf with rfl | rfl | rfl <;> rfl

theorem heCells_set (l : List Hd) (x y z : Int) : ∀ k, k < l.length → (((heCells l).set (k * 3) (.int .i64 x)).set (k * 3 + 1) (.int .i64 y)).set (k * 3 + 2) (.int .i64 z) = heCells (l.set k (x, y, z)) := by
  induction l with
  | nil => intro k hk; simp at hk
  | cons f fs ih =>
    intro k hk
    rw [heCells_cons]
    cases k with
    | zero => rfl
    | succ k =>
      rw [show (k + 1) * 3 = k * 3 + 1 + 1 + 1 by omega]
      have := ih k (by simpa using hk)
      simp only [List.set_cons_succ]
      rw [this]
      rfl

/-- A number of 64 bits. -/
def i64h (x : Int) : Prop := -9223372036854775808 ≤ x ∧ x ≤ 9223372036854775807

def hd64 (s : Hd) : Prop := i64h s.1 ∧ i64h s.2.1 ∧ i64h s.2.2

/-- The slice (a, n) holds these answers in the world w. -/
def Helds (w : World) (a : Option Addr) (n : Nat) (l : List Hd) : Prop :=
  l.length = n ∧ (∀ s ∈ l, hd64 s) ∧
  (n = 0 ∨ ∃ b off, a = some ⟨b, off, none⟩ ∧ b < w.heap.size ∧ ∀ i (hi : i < l.length), w.cell? ⟨b, off + i * 3, none⟩ = some (.int .i64 (l[i]).1) ∧ w.cell? ⟨b, off + i * 3 + 1, none⟩ = some (.int .i64 (l[i]).2.1) ∧ w.cell? ⟨b, off + i * 3 + 2, none⟩ = some (.int .i64 (l[i]).2.2))

theorem Helds.below {w w' : World} {a : Option Addr} {n : Nat} {l : List Hd} (h : Helds w a n l) (hb : Below w.heap.size w w') : Helds w' a n l := by
  obtain ⟨h1, h2, h3⟩ := h
  refine ⟨h1, h2, ?_⟩
  rcases h3 with h0 | ⟨b, off, ha, hlt, hc⟩
  · exact .inl h0
  · refine .inr ⟨b, off, ha, Nat.lt_of_lt_of_le hlt hb.size, fun i hi => ?_⟩
    have key : ∀ j v, w.cell? ⟨b, j, none⟩ = some v → w'.cell? ⟨b, j, none⟩ = some v := fun j v hv => (hb.cell (p := ⟨b, j, none⟩) hlt).trans hv
    exact ⟨key _ _ (hc i hi).1, key _ _ (hc i hi).2.1, key _ _ (hc i hi).2.2⟩

/-- The cells at one index. -/
theorem Helds.at {w : World} {a : Option Addr} {n : Nat} {l : List Hd} (h : Helds w a n l) {k : Nat} (hk : k < n) : ∃ b off x y z, a = some ⟨b, off, none⟩ ∧ b < w.heap.size ∧ l[k]? = some (x, y, z) ∧ w.cell? ⟨b, off + k * 3, none⟩ = some (.int .i64 x) ∧ w.cell? ⟨b, off + k * 3 + 1, none⟩ = some (.int .i64 y) ∧ w.cell? ⟨b, off + k * 3 + 2, none⟩ = some (.int .i64 z) ∧ hd64 (x, y, z) := by
  obtain ⟨h1, h2, h3⟩ := h
  rcases h3 with h0 | ⟨b, off, ha, hlt, hc⟩
  · omega
  · have hk' : k < l.length := by omega
    have hm := h2 (l[k]) (List.getElem_mem hk')
    exact ⟨b, off, (l[k]).1, (l[k]).2.1, (l[k]).2.2, ha, hlt, List.getElem?_eq_getElem hk', (hc k hk').1, (hc k hk').2.1, (hc k hk').2.2, hm⟩

/-- A slice value that owns these answers, in a block from base on. -/
def OwnH (w : World) (base : Nat) (a : Option Addr) (n cap : Nat) (l : List Hd) : Prop := w.ownsRow base 88 3 (.slice a n cap) n (heCells l) ∧ ∀ s ∈ l, hd64 s

theorem OwnH.len {w : World} {base n cap : Nat} {a : Option Addr} {l : List Hd} (h : OwnH w base a n cap l) : l.length = n := by
  have := h.1.1
  rw [heCells_len] at this
  omega

theorem OwnH.below {w w' : World} {base n cap : Nat} {a : Option Addr} {l : List Hd} (h : OwnH w base a n cap l) (hb : Below w.heap.size w w') : OwnH w' base a n cap l := ⟨own_below h.1 hb, h.2⟩

theorem OwnH.helds {w : World} {base n cap : Nat} {a : Option Addr} {l : List Hd} (h : OwnH w base a n cap l) : Helds w a n l := by
  have hl := h.len
  refine ⟨hl, h.2, ?_⟩
  rcases h.1.2 with ⟨_, hn⟩ | ⟨g, cap', cur, he, hb, hg, hn, hm, hc, ht⟩
  · exact .inl hn
  · injection he with e1 e2 e3
    subst e1
    refine .inr ⟨g, 0, rfl, (Array.getElem?_eq_some_iff.1 hg).1, fun i hi => ?_⟩
    have hi' : i < n := by omega
    have hget : ∀ j, j < n * 3 → w.cell? ⟨g, j, none⟩ = (heCells l)[j]? := by
      intro j hj
      rw [cell_of_row w g j cur _ (0, 0) hg, ← ht, List.getElem?_take, if_pos hj, Array.getElem?_toList]
    have := heCells_at l i hi
    rw [Nat.zero_add, hget (i * 3) (by omega), hget (i * 3 + 1) (by omega), hget (i * 3 + 2) (by omega)]
    exact this

theorem OwnH.lt {w : World} {base n cap : Nat} {a : Option Addr} {l : List Hd} (h : OwnH w base a n cap l) : ∀ k, a.map (·.block) = some k → base ≤ k ∧ k < w.heap.size := by
  intro k hk
  cases a with
  | none => simp at hk
  | some p => exact h.1.lt k (by simpa [Value.ownBlock] using hk)

theorem OwnH.kept {w w' : World} {base n cap : Nat} {a : Option Addr} {l : List Hd} {r : Option Nat} (h : OwnH w base a n cap l) (hg : w.grownBy w' r) (hr : ∀ k, r = some k → a.map (·.block) ≠ some k) : OwnH w' base a n cap l := by
  refine ⟨h.1.kept hg ?_, h.2⟩
  cases a with
  | none => exact .inl rfl
  | some p =>
    refine .inr ?_
    cases r with
    | none => simp [Value.ownBlock]
    | some k => have := hr k rfl; simpa [Value.ownBlock] using this

theorem OwnH.low {w : World} {base b n cap : Nat} {a : Option Addr} {l : List Hd} (h : OwnH w base a n cap l) (hb : b ≤ base) : OwnH w b a n cap l := by
  refine ⟨⟨h.1.1, ?_⟩, h.2⟩
  rcases h.1.2 with h0 | ⟨g, cap', cur, he, hg, r⟩
  · exact .inl h0
  · exact .inr ⟨g, cap', cur, he, Nat.le_trans hb hg, r⟩

theorem made_threeH (v : Value) (n : Nat) : (madeCells #[v, v, v] n).toList = List.replicate n v := by
  apply List.ext_getElem?
  intro j
  by_cases hj : j < n
  · have : j % 3 = 0 ∨ j % 3 = 1 ∨ j % 3 = 2 := by omega
    rcases this with h | h | h <;> simp [madeCells, hj, h]
  · simp [madeCells, hj]

theorem heCells_nil (n : Nat) : heCells (List.replicate n (0, 0, 0)) = List.replicate (n * 3) (.int .i64 0) := by
  induction n with
  | zero => rfl
  | succ n ih =>
    rw [show (n + 1) * 3 = n * 3 + 1 + 1 + 1 by omega, List.replicate_succ, List.replicate_succ, List.replicate_succ, List.replicate_succ, ← ih]
    rfl

/-- A row that is copied up to k. -/
def heTo (l : List Hd) (len k : Nat) : List Hd := l.take k ++ List.replicate (len - k) (0, 0, 0)

theorem heTo_step (l : List Hd) (len k : Nat) (s : Hd) (h : l[k]? = some s) (hk : k < len) : (heTo l len k).set k s = heTo l len (k + 1) := by
  have hl : k < l.length := (List.getElem?_eq_some_iff.1 h).1
  have ht : (l.take k).length = k := by simp; omega
  rw [heTo, heTo, List.set_append_right k _ (by omega), ht, Nat.sub_self, List.take_add_one, h, show len - k = (len - (k + 1)) + 1 by omega, List.replicate_succ]
  simp

theorem heTo_len (l : List Hd) (len k : Nat) (h : l.length = len) (hk : k ≤ len) : (heTo l len k).length = len := by
  simp [heTo]; omega

theorem info_held : (Tryz.prog.info? 88).map (fun i => (i.zero, i.size, i.bytes)) = some (some (.agg #[.int .i64 0, .int .i64 0, .int .i64 0]), 3, 24) := by kernel_rfl

end Go.Proofs.YtemcjenpgdieoaaGreatDoor

namespace Go.Proofs.YtemcjenpgdieoaaGreatDoor
open Go.RowKit
set_option linter.unusedVariables false

theorem OwnH.same {W W' : World} {base n cap : Nat} {a : Option Addr} {l : List Hd} (h : OwnH W base a n cap l) (hq : ∀ q, a.map (·.block) = some q → W'.heap[q]? = W.heap[q]?) : OwnH W' base a n cap l := ⟨own_same h.1 (fun q e => hq q (by rw [← ownBlock_sU a n cap]; exact e)), h.2⟩

/-- The rows of a server. -/
structure SvAt (W : World) (lo : Nat) (a : Option Addr) (n ca : Nat) (X : List ByteArray) (a' : Option Addr) (n' ca' : Nat) (Y : List ByteArray) (ua : Option Addr) (un uc : Nat) (l : List UE) (ha : Option Addr) (hn hc : Nat) (hs : List Hd) : Prop where
  sto : StoAt W lo a n ca X a' n' ca' Y ua un uc l
  held : OwnH W lo ha hn hc hs

/-- They lie below a bound. -/
def SvIn (a a' ua : Option Addr) (l : List UE) (ha : Option Addr) (hi : Nat) : Prop := StoIn a a' ua l hi ∧ ∀ q, ha.map (·.block) = some q → q < hi

/-- What waits lies behind the store. -/
def SvBeh (lo : Nat) (a a' ua : Option Addr) (l : List UE) (ha : Option Addr) : Prop := ∃ m, lo ≤ m ∧ StoIn a a' ua l m ∧ ∀ q, ha.map (·.block) = some q → m ≤ q

section
variable {W W' : World} {lo b : Nat} {a : Option Addr} {n ca : Nat} {X : List ByteArray} {a' : Option Addr} {n' ca' : Nat} {Y : List ByteArray} {ep nx : Int} {ua : Option Addr} {un uc : Nat} {l : List UE} {ha : Option Addr} {hn hc : Nat} {hs : List Hd}

theorem SvAt.stays (h : SvAt W lo a n ca X a' n' ca' Y ua un uc l ha hn hc hs) (hb : Below W.heap.size W W') : SvAt W' lo a n ca X a' n' ca' Y ua un uc l ha hn hc hs := ⟨h.sto.stays hb, h.held.below hb⟩

theorem SvAt.low {lo' : Nat} (h : SvAt W lo a n ca X a' n' ca' Y ua un uc l ha hn hc hs) (hb : lo' ≤ lo) : SvAt W lo' a n ca X a' n' ca' Y ua un uc l ha hn hc hs := ⟨h.sto.low hb, h.held.low hb⟩

theorem SvAt.inn (h : SvAt W lo a n ca X a' n' ca' Y ua un uc l ha hn hc hs) : SvIn a a' ua l ha W.heap.size := ⟨h.sto.inn, fun q e => (h.held.lt q e).2⟩

theorem SvAt.same (h : SvAt W lo a n ca X a' n' ca' Y ua un uc l ha hn hc hs) {hi : Nat} (hin : SvIn a a' ua l ha hi) (hq : ∀ q, lo ≤ q → q < hi → q < W.heap.size → W'.heap[q]? = W.heap[q]?) : SvAt W' lo a n ca X a' n' ca' Y ua un uc l ha hn hc hs :=
  ⟨h.sto.same hin.1 hq, h.held.same (fun q e => hq q (h.held.lt q e).1 (hin.2 q e) (h.held.lt q e).2)⟩

/-- A variable that holds a server. -/
structure VB (W : World) (lo b : Nat) (a : Option Addr) (n ca : Nat) (X : List ByteArray) (a' : Option Addr) (n' ca' : Nat) (Y : List ByteArray) (ep nx : Int) (ua : Option Addr) (un uc : Nat) (l : List UE) (ha : Option Addr) (hn hc : Nat) (hs : List Hd) : Prop where
  box : BoxN W b 32 [.slice a n ca, .slice a' n' ca', .int .i64 ep, .int .i64 nx, .slice ua un uc, .slice ha hn hc]
  sv : SvAt W lo a n ca X a' n' ca' Y ua un uc l ha hn hc hs
  inn : SvIn a a' ua l ha b
  lob : lo ≤ b

theorem VB.new (h : SvAt W lo a n ca X a' n' ca' Y ua un uc l ha hn hc hs) (hl : lo ≤ W.heap.size) : VB (W.alloc (.cells #[.slice a n ca, .slice a' n' ca', .int .i64 ep, .int .i64 nx, .slice ua un uc, .slice ha hn hc] 32)) lo W.heap.size a n ca X a' n' ca' Y ep nx ua un uc l ha hn hc hs :=
  ⟨BoxN.new _ _ _, h.stays ((Below.refl _ _).alloc (Nat.le_refl _) _), h.inn, hl⟩

theorem VB.stays (h : VB W lo b a n ca X a' n' ca' Y ep nx ua un uc l ha hn hc hs) (hb : Below W.heap.size W W') : VB W' lo b a n ca X a' n' ca' Y ep nx ua un uc l ha hn hc hs := ⟨h.box.stays hb, h.sv.stays hb, h.inn, h.lob⟩

theorem VB.kept {lo2 hi2 : Nat} (h : VB W lo b a n ca X a' n' ca' Y ep nx ua un uc l ha hn hc hs) (hw : Within W W' lo2 hi2) (ho : b < lo2 ∨ hi2 ≤ lo) : VB W' lo b a n ca X a' n' ca' Y ep nx ua un uc l ha hn hc hs :=
  ⟨(hw.block b h.box.lt (by have := h.lob; omega)).trans h.box, h.sv.same h.inn (fun q h1 h2 h3 => hw.block q h3 (by omega)), h.inn, h.lob⟩

end

/-- An answer that is a server; k: what waits lies behind the store. -/
def AnsV (k : Bool) (base : Nat) (X Y : List ByteArray) (ep nx : Int) (us : List U) (hs : List Hd) (v : Value) (w' : World) : Prop :=
  ∃ (a : Option Addr) (n ca : Nat) (a' : Option Addr) (n' ca' : Nat) (ua : Option Addr) (un uc : Nat) (l : List UE) (ha : Option Addr) (hn hc : Nat), v = .agg #[.slice a n ca, .slice a' n' ca', .int .i64 ep, .int .i64 nx, .slice ua un uc, .slice ha hn hc] ∧ SvAt w' base a n ca X a' n' ca' Y ua un uc l ha hn hc hs ∧ l.map UE.u = us ∧ (k = true → SvBeh base a a' ua l ha)

theorem AnsV.get {k : Bool} {base : Nat} {X Y : List ByteArray} {ep nx : Int} {us : List U} {hs : List Hd} {v : Value} {w' : World} (h : AnsV k base X Y ep nx us hs v w') : ∃ (a : Option Addr) (ca : Nat) (a' : Option Addr) (ca' : Nat) (ua : Option Addr) (uc : Nat) (l : List UE) (ha : Option Addr) (hc : Nat), v = .agg #[.slice a X.length ca, .slice a' Y.length ca', .int .i64 ep, .int .i64 nx, .slice ua us.length uc, .slice ha hs.length hc] ∧ SvAt w' base a X.length ca X a' Y.length ca' Y ua us.length uc l ha hs.length hc hs ∧ l.map UE.u = us ∧ (k = true → SvBeh base a a' ua l ha) := by
  obtain ⟨a, n, ca, a', n', ca', ua, un, uc, l, ha, hn, hc, rfl, hv, hm, hk⟩ := h
  have h1 : n = X.length := by have := hv.sto.now.1.1; simpa [scells] using this.symm
  have h2 : n' = Y.length := by have := hv.sto.sure.1.1; simpa [scells] using this.symm
  have h3 : un = us.length := by rw [hv.sto.len, ← hm, List.length_map]
  have h4 : hn = hs.length := hv.held.len.symm
  subst h1 h2 h3 h4
  exact ⟨a, ca, a', ca', ua, uc, l, ha, hc, rfl, hv, hm, hk⟩

/-- A row from base on, that lies above a bound, is one from that bound on. -/
theorem own_up {W : World} {base m n size : Nat} {e : TypeId} {v : Value} {xs : List Value} (h : W.ownsRow base e size v n xs) (hm : ∀ q, v.ownBlock = some q → m ≤ q) : W.ownsRow m e size v n xs := by
  refine ⟨h.1, ?_⟩
  rcases h.2 with h0 | ⟨g, cap, cur, rfl, hb, r⟩
  · exact .inl h0
  · exact .inr ⟨g, cap, cur, rfl, hm g rfl, r⟩

theorem OwnH.up {W : World} {base m n cap : Nat} {a : Option Addr} {l : List Hd} (h : OwnH W base a n cap l) (hm : ∀ q, a.map (·.block) = some q → m ≤ q) : OwnH W m a n cap l := ⟨own_up h.1 (fun q e => hm q (by rw [← ownBlock_sU a n cap]; exact e)), h.2⟩

end Go.Proofs.YtemcjenpgdieoaaGreatDoor

namespace Go.Proofs.YtemcjenpgdieoaaGreatDoor
open Go.RowKit

/-- A world in which all that lay in w is as it was. -/
structure Past (w : World) where
  world : World
  below : Below w.heap.size w world

theorem wp_region_past {P : Program} {id : Nat} {Q : Exit → Act → World → Prop} {a : Act} {w : World} {l : List Oper} (hm : P.follows .mixedOrders = true) (hB : Region.lexB .any l.toArray = true)
    (h : wpQuiet P l.toArray (fun w' => ∃ p : Past w, w' = p.world) (fun a' => ∀ w', (∃ p : Past w, w' = p.world) → Q .normal a' w') l a) : (Code.region id l.toArray true).wp P Q a w :=
  wp_region_quiet (C := fun w' => ∃ p : Past w, w' = p.world) hm hB ⟨⟨w.drew, (Below.refl _ _).drew⟩, rfl⟩ (by simpa using h)

theorem calls_past {P : Program} {f : FuncId} {args : Array Value} {w : World} {p : Past w} {v : Value}
    (h : Calls P f args p.world fun e w' => e = .returned v ∧ Below p.world.heap.size p.world w') : Calls P f args p.world fun e w'' => e = .returned v ∧ ∃ p : Past w, w'' = p.world :=
  h.mono fun _ w' ⟨he, hb⟩ => ⟨he, ⟨w', p.below.trans (hb.mono p.below.size)⟩, rfl⟩

/-- One operation that is wanted. -/
theorem quiet_do {P : Program} {ops : Array Oper} {C : World → Prop} {Q : Act → Prop} {a : Act} {o : Oper} {rest : List Oper} (hw : Region.wanted o (yielded ops a.tmps) = true)
    (h : ∀ K : Act → Prop, (∀ a, wpQuiet P ops C Q rest a → K a) → o.quiet P a C K) : wpQuiet P ops C Q (o :: rest) a :=
  wpQuiet_step fun K hK => by rw [if_pos hw]; exact h K hK

/-- One that is not. -/
theorem quiet_skip {P : Program} {ops : Array Oper} {C : World → Prop} {Q : Act → Prop} {a : Act} {o : Oper} {rest : List Oper} (hw : Region.wanted o (yielded ops a.tmps) = false)
    (h : ∀ K : Act → Prop, (∀ a, wpQuiet P ops C Q rest a → K a) → K (a.put o.dst undef)) : wpQuiet P ops C Q (o :: rest) a :=
  wpQuiet_step fun K hK => by rw [if_neg (by rw [hw]; simp)]; exact h K hK

/-- One that is not: what is behind it. -/
theorem quiet_past {P : Program} {ops : Array Oper} {C : World → Prop} {Q : Act → Prop} {a : Act} {o : Oper} {rest : List Oper} (hw : Region.wanted o (yielded ops a.tmps) = false) (h : wpQuiet P ops C Q rest (a.put o.dst undef)) : wpQuiet P ops C Q (o :: rest) a :=
  quiet_skip hw fun _ hK => hK _ h

/-- As wp_region_past, the region's row hidden behind a name: then what an unwanted operation would do is not looked at. -/
theorem wp_region_pastO {P : Program} {id : Nat} {Q : Exit → Act → World → Prop} {a : Act} {w : World} {l : List Oper} (hm : P.follows .mixedOrders = true) (hB : Region.lexB .any l.toArray = true)
    (h : ∀ ops : Array Oper, Hid (ops = l.toArray) → wpQuiet P ops (fun w' => ∃ p : Past w, w' = p.world) (fun a' => ∀ w', (∃ p : Past w, w' = p.world) → Q .normal a' w') l a) : (Code.region id l.toArray true).wp P Q a w :=
  wp_region_past hm hB (h _ rfl)

theorem past_some (w : World) : Nonempty (Past w) := ⟨⟨w, Below.refl _ _⟩⟩

theorem Past.cell {w : World} (p : Past w) {a : Addr} {v : Value} (hb : a.block < w.heap.size) (h : w.cell? a = some v) : p.world.cell? a = some v := (p.below.cell hb).trans h

end Go.Proofs.YtemcjenpgdieoaaGreatDoor

namespace Go.Proofs.YtemcjenpgdieoaaGreatDoor
open Go.RowKit
set_option linter.unusedVariables false

theorem held_intU (base : Nat) (a : Option Addr) (n cap k : Nat) (kk : Int) (w : World) (h : Owns w base a n cap (marks k n)) (hn : n ≤ 2199023255552) (hk : k ≤ 2199023255552) (hkk : kk = (k : Int)) :
    Calls Tryz.prog 76 #[.slice a n cap, .int .i64 kk] w fun e w' => e = .returned (.int .i64 ((k + n : Nat) : Int)) ∧ w' = w := by
  subst hkk
  exact held_any base a n cap k w h hn hk

set_option maxRecDepth 10000 in
set_option maxHeartbeats 3200000 in
theorem heldUpS_any (base : Nat) (a : Option Addr) (n cap k : Nat) (l : List UE) (w : World) (h : UpRow w base (.slice a n cap) (mkUp k l)) (hn : l.length = n) (hk : mkUEnd k l ≤ 2199023255552) (hnb : n ≤ 1099511627776) :
    Calls Tryz.prog 103 #[.slice a n cap, .int .i64 (k : Int)] w fun e w' => e = .returned (.int .i64 (mkUEnd k l : Int)) ∧ Below w.heap.size w w' := by
  have HO : Hid (UpRow w base (.slice a n cap) (mkUp k l)) := h
  have HN : Hid (l.length = n) := hn
  have HK : Hid (mkUEnd k l ≤ 2199023255552) := hk
  clear h hn hk
  go_enter Tryz.func103, Tryz.ntmps103
  go_wp2
  go_loopw [1, 5] (fun v i wr => ∃ j : Nat, j ≤ n ∧ i = .int .i64 j ∧ v = .int .i64 (mkUEnd k (l.take j) : Int) ∧ Hid (Below w.heap.size w wr)) (fun _ i _ => n - (intOf i).toNat)
  case atStart => exact ⟨0, Nat.zero_le _, rfl, rfl, Below.refl _ _⟩
  case round =>
    obtain ⟨j, hj, rfl, rfl, HW⟩ := hrel
    by_cases hlt : j < n
    · have hjl : j < l.length := by have := HN.out; omega
      have ht : l.take (j + 1) = l.take j ++ [l[j]] := List.take_succ_eq_append_getElem hjl
      have hml : (mkUp k (l.take j)).length = j := by rw [mkUp_len, List.length_take]; omega
      have HEnd : Hid (mkUEnd k (l.take (j + 1)) = mkUEnd k (l.take j) + 3 + (l[j]).n) := by show _ = _; rw [ht, mkUEnd_append]; rfl
      have hKb : mkUEnd k (l.take j) + 3 + (l[j]).n ≤ 2199023255552 := by
        have h1 := HK.out
        rw [← List.take_append_drop (j + 1) l, mkUEnd_append] at h1
        have h2 := mkUEnd_ge (mkUEnd k (l.take (j + 1))) (l.drop (j + 1))
        have h3 := HEnd.out
        omega
      have hFr : mkUp k l = mkUp k (l.take j) ++ mkU1 (mkUEnd k (l.take j)) (l[j]) :: mkUp (mkUEnd k (l.take j) + 3 + (l[j]).n) (l.drop (j + 1)) := by
        have hd : l = l.take j ++ l[j] :: l.drop (j + 1) := by rw [← List.drop_eq_getElem_cons hjl]; exact (List.take_append_drop j l).symm
        rw [show mkUp k l = mkUp k (l.take j ++ l[j] :: l.drop (j + 1)) from congrArg (mkUp k) hd, mkUp_append]
        rfl
      have hlen : (mkUp k l).length = n := by rw [mkUp_len]; exact HN.out
      have hge : (mkUp k l)[j]'(by omega) = mkU1 (mkUEnd k (l.take j)) (l[j]) := by
        have h1 : (mkUp k l)[j]? = some (mkU1 (mkUEnd k (l.take j)) (l[j])) := by
          rw [hFr, List.getElem?_append_right (by omega), hml, Nat.sub_self]
          rfl
        rw [List.getElem?_eq_getElem (by omega)] at h1
        exact Option.some.inj h1
      have HAt : Hid (∀ W, Below w.heap.size w W → ∃ g, a = some ⟨g, 0, none⟩ ∧ W.cell? ⟨g, j * 4, none⟩ = some (.string (mt (mkUEnd k (l.take j)))) ∧ W.cell? ⟨g, j * 4 + 1, none⟩ = some (.int .i64 ((mkUEnd k (l.take j) : Int) + 1)) ∧ W.cell? ⟨g, j * 4 + 2, none⟩ = some (.slice (l[j]).a (l[j]).n (l[j]).c) ∧ W.cell? ⟨g, j * 4 + 3, none⟩ = some (.bool (mbU (mkUEnd k (l.take j) + 2 + (l[j]).n))) ∧ Owns W base (l[j]).a (l[j]).n (l[j]).c (marks (mkUEnd k (l.take j) + 2) (l[j]).n)) := fun W hb => by
        have hO := HO.out.stays hb
        have hat := hO.at hlen.symm (i := j) (by omega)
        have hin := hO.2.1 ((mkUp k l)[j]'(by omega)) (List.getElem_mem _)
        rw [hge] at hat hin
        obtain ⟨g, h1, h2, h3, h4, h5, _⟩ := hat
        exact ⟨g, h1, h2, h3, h4, h5, hin⟩
      clear hge hFr ht hml hlen
      generalize mkUEnd k (l.take j) = K at *
      generalize l[j] = e at *
      obtain ⟨r, ea, en, ec⟩ := e
      dsimp only at *
      obtain ⟨g, rfl, _⟩ := HAt.out _ HW.out
      have hKi : (K : Int) ≤ 2199023255552 := by omega
      have hji : (j : Int) < (n : Int) := by omega
      have hj0 : (0 : Int) ≤ (j : Int) := by omega
      have hC : ∀ P : Past wr, P.world.cell? ⟨g, j * 4, none⟩ = some (.string (mt K)) := fun P => by
        obtain ⟨g', hg, h1, _⟩ := HAt.out _ (HW.out.trans (P.below.mono HW.out.size))
        injection hg with hg
        injection hg with hg
        subst hg
        exact h1
      have HTx : Hid (∀ P : Past wr, Calls Tryz.prog 28 #[.int .i64 (K : Int)] P.world fun e w' => e = .returned (.string (mt K)) ∧ Below P.world.heap.size P.world w') := fun P => markText_any K P.world (by omega)
      have hnp := past_some wr
      generalize mt K = T3 at *
      have n3 : (T3.toList != T3.toList) = false := by simp
      go_wp2_with fail
      refine wp_region_past (by kernel_rfl) (by kernel_rfl) ?_
      repeat (quiet_step ((first | (go_at_call 28; with_reducible exact calls_past (HTx.out _)) | fail)))
      refine wpQuiet_nil ?_
      rintro _ ⟨z, rfl⟩
      have HB2 : Hid (Below w.heap.size w z.world) := HW.out.trans (z.below.mono HW.out.size)
      obtain ⟨x1, hx1⟩ : ∃ x1, z.world = x1 := ⟨_, rfl⟩
      rw [hx1] at HB2 ⊢
      clear hx1 z hnp hC HTx HW
      obtain ⟨g', hg, _, c1, c2, c3, ho⟩ := HAt.out _ HB2.out
      injection hg with hg
      injection hg with hg
      subst hg
      have HE : Hid (Owns x1 base ea en ec (marks (K + 2) en)) := ho
      have n1 : ((K : Int) + 1 != (K : Int) + 1) = false := by simp
      clear ho HAt
      go_wp2_with fail
      refine (held_intU base ea en ec (K + 2) _ _ HE.out (by omega) (by omega) (by omega)).mono ?_
      rintro _ x1 ⟨rfl, rfl⟩
      obtain ⟨K4, hK4⟩ : ∃ K4, K + 2 + en = K4 := ⟨_, rfl⟩
      have HK4 : Hid (K + 2 + en = K4) := hK4
      rw [hK4] at c3 ⊢
      have hmb := mbU_is K4
      have hK4i : (K4 : Int) ≤ 2199023255552 := by omega
      have hK4p : ¬ (K4 : Int) < 0 := by omega
      have n4 : (mbU K4 != mbU K4) = false := by simp
      clear hK4
      go_wp2
      go_roundw
      case rel =>
        refine ⟨j + 1, by omega, by go_num, ?_, HB2⟩
        rw [HEnd.out]
        have := HK4.out
        go_num
      case measure => simp [intOf]; omega
    · have hjn : j = n := by omega
      subst hjn
      have hl := HN.out
      have HE : Hid (mkUEnd k (l.take j) = mkUEnd k l) := by show _ = _; rw [List.take_of_length_le (by omega)]
      generalize mkUEnd k (l.take j) = K at *
      go_wp2
      go_ret
      exact ⟨ret_int (by rw [HE.out]), HW.out⟩

end Go.Proofs.YtemcjenpgdieoaaGreatDoor

namespace Go.Proofs.YtemcjenpgdieoaaGreatDoor
open Go.RowKit
set_option linter.unusedVariables false

set_option maxRecDepth 10000 in
set_option maxHeartbeats 1600000 in
theorem heldStrS_any (a : Option Addr) (n cap k : Nat) (w : World) (h : Strs w a n (marksS k n)) (hn : n ≤ 1099511627776) (hk : k ≤ 1099511627776) :
    Calls Tryz.prog 121 #[.slice a n cap, .int .i64 (k : Int)] w fun e w' => e = .returned (.int .i64 ((k + n : Nat) : Int)) ∧ Below w.heap.size w w' := by
  have HX : Hid (Strs w a n (marksS k n)) := h
  clear h
  go_enter Tryz.func121, Tryz.ntmps121
  go_wp2_with fail
  go_loopw [1, 5] (fun q i wr => ∃ j : Nat, j ≤ n ∧ i = .int .i64 j ∧ q = .int .i64 ((k + j : Nat) : Int) ∧ Hid (Below w.heap.size w wr)) (fun _ i _ => n - (intOf i).toNat)
  case atStart => exact ⟨0, Nat.zero_le _, rfl, rfl, Below.refl _ _⟩
  case round =>
    obtain ⟨j, hj, rfl, rfl, HB⟩ := hrel
    by_cases hlt : j < n
    · obtain ⟨b, off, x, rfl, hb, hfx, hc0⟩ := (HX.out.below HB.out).at hlt
      obtain rfl : x = mt (k + j) := by
        rw [marksS_at k n j hlt] at hfx
        simp at hfx
        exact hfx.symm
      have hji : (j : Int) < (n : Int) := by omega
      have HM1 : Hid (∀ W, Calls Tryz.prog 28 #[.int .i64 ((k + j : Nat) : Int)] W fun e w' => e = .returned (.string (mt (k + j))) ∧ Below W.heap.size W w') := fun W => markText_any _ W (by omega)
      generalize mt (k + j) = m1 at *
      obtain ⟨K1, hK1⟩ : ∃ K1, k + (j + 1) = K1 := ⟨_, rfl⟩
      obtain ⟨K0, hK0⟩ : ∃ K0, k + j = K0 := ⟨_, rfl⟩
      have hq1 : (K0 : Int) + 1 = (K1 : Int) := by omega
      rw [hK0] at HM1 ⊢
      have HK1 : Hid (k + (j + 1) = K1) := hK1
      have hK0b : (K0 : Int) ≤ 4398046511104 := by omega
      clear hK0 hK1 hfx
      have hne1 : (m1.toList != m1.toList) = false := by simp
      have HC : Hid (∀ W, Below wr.heap.size wr W → W.cell? ⟨b, off + j, none⟩ = some (.string m1) ∧ Below w.heap.size w W) := fun W hW => ⟨(hW.cell (p := ⟨b, _, none⟩) hb).trans hc0, HB.out.trans (hW.mono HB.out.size)⟩
      go_wp2_with fail
      go_region_with (first
        | (go_at_call 28; refine (HM1.out _).mono ?_; rintro e x1 ⟨rfl, hb1⟩; have hb1' : Below wr.heap.size wr x1 := (Below.refl wr.heap.size wr).drew.trans (hb1.mono (Nat.le_refl _)); obtain ⟨k0, k2⟩ := HC.out x1 hb1'))
      all_goals
        have HB3 : Hid (Below w.heap.size w x1) := k2
        clear hb1 hb1' k0 k2 hc0
        go_wp2_with fail
        go_roundw
        case rel => exact ⟨j + 1, by omega, by go_num, by rw [HK1.out], HB3⟩
        case measure => simp [intOf]; omega
    · have hjn : j = n := by omega
      subst hjn
      go_wp2_with fail
      go_ret
      exact ⟨rfl, HB.out⟩

end Go.Proofs.YtemcjenpgdieoaaGreatDoor

namespace Go.Proofs.YtemcjenpgdieoaaGreatDoor
open Go.RowKit
set_option linter.unusedVariables false

set_option maxHeartbeats 800000 in
theorem heldDisk_any (a : Option Addr) (n ca : Nat) (a' : Option Addr) (n' ca' : Nat) (k : Nat) (w : World) (h1 : Strs w a n (marksS k n)) (h2 : Strs w a' n' (marksS (k + n) n')) (hn : n ≤ 1073741824) (hn' : n' ≤ 1073741824) (hk : k ≤ 1073741824) :
    Calls Tryz.prog 102 #[.agg #[.slice a n ca, .slice a' n' ca'], .int .i64 (k : Int)] w fun r w' => r = .returned (.int .i64 ((k + n + n' : Nat) : Int)) ∧ Below w.heap.size w w' := by
  have HX : Hid (∀ W, Below w.heap.size w W → Strs W a n (marksS k n) ∧ Strs W a' n' (marksS (k + n) n')) := fun W h => ⟨h1.below h, h2.below h⟩
  clear h1 h2
  have HA : Hid (Box2R (w.alloc (Obj.cells #[Value.slice a n ca, Value.slice a' n' ca'] 26)) w.heap.size 26 (.slice a n ca) (.slice a' n' ca')) := Box2R.new _ _ _ _
  have HB : Hid (Below w.heap.size w (w.alloc (Obj.cells #[Value.slice a n ca, Value.slice a' n' ca'] 26))) := (Below.refl _ _).alloc (Nat.le_refl _) _
  go_enter Tryz.func102, Tryz.ntmps102
  go_wp2_with fail
  refine (heldStrS_any a n ca k _ (HX.out _ HB.out).1 (by omega) (by omega)).mono ?_
  rintro r x1 ⟨rfl, hb1⟩
  have HB1 : Hid (Below w.heap.size w x1) := HB.out.trans (hb1.mono HB.out.size)
  obtain ⟨c0, c1⟩ := (HA.out.stays hb1).cells
  clear hb1 HA HB
  have HM : Hid (Calls Tryz.prog 121 #[.slice a' n' ca', .int .i64 ((k + n : Nat) : Int)] x1 fun e w' => e = .returned (.int .i64 ((k + n + n' : Nat) : Int)) ∧ Below x1.heap.size x1 w') := heldStrS_any a' n' ca' (k + n) _ (HX.out _ HB1.out).2 (by omega) (by omega)
  clear HX
  obtain ⟨K, hK⟩ : ∃ K, k + n = K := ⟨_, rfl⟩
  rw [hK] at HM ⊢
  have hp1 : ¬ (K : Int) < 0 := by omega
  have hp1d : decide ((K : Int) < 0) = false := by simp
  have HK : Hid (k + n = K) := hK
  clear hK
  go_wp2_with fail
  refine HM.out.mono ?_
  rintro r x2 ⟨rfl, hb2⟩
  have HB2 : Hid (Below w.heap.size w x2) := HB1.out.trans (hb2.mono HB1.out.size)
  clear hb2 HM HB1 c0 c1
  obtain ⟨K2, hK2⟩ : ∃ K2, K + n' = K2 := ⟨_, rfl⟩
  have HK2 : Hid (K + n' = K2) := hK2
  rw [hK2]
  have hp2 : ¬ (K2 : Int) < 0 := by omega
  have hp2d : decide ((K2 : Int) < 0) = false := by simp
  clear hK2
  go_wp2_with fail
  go_ret
  exact ⟨ret_i64 (by rw [HK.out, HK2.out]), HB2.out⟩

end Go.Proofs.YtemcjenpgdieoaaGreatDoor
