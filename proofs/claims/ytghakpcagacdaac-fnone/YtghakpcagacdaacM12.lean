/- The program's SizeOf. The program's ring of fields: its cells, a slot, a field that is pushed. The program's ring of fields: the oldest dropped, as far as must be. An append onto a row of the call's own from a slice that may be nil: as an operation, as a step of a region that draws. No program in it. The library's Grow of nil, and its Concat of two slices of fields. -/
import Derived.Test.YtghakpcagacdaacM07
import Derived.Test.YtghakpcagacdaacM11
import Derived.Deep.RegionWith
import Derived.Deep.RegionLaw
import Derived.Deep.AppendSrc
import Derived.Laws.AppendOwn
import Derived.WalkKit
namespace Go.Proofs.Ytghakpcagacdaac
open Go.RowKit
set_option linter.unusedVariables false

set_option maxHeartbeats 400000 in
theorem implOf4_any (x y : ByteArray) (w : World) (hx : x.size + y.size ≤ 2097152) : Calls Try.prog 74 #[.agg #[.string x, .string y]] w fun e w' => e = .returned (.int .i64 (x.size + y.size + 32)) ∧ Below w.heap.size w w' := by
  go_enter Try.func74, Try.ntmps74
  go_wp2
  go_ret
  exact ⟨rfl, (Below.refl _ _).alloc (Nat.le_refl _) _⟩

set_option maxHeartbeats 400000 in
theorem implSize_any (m : Int) (a : Option Addr) (len ca : Nat) (xs : List Fld) (w : World) (hx : Flds w a len xs) (hl : len + fldBytes xs ≤ 2097152) :
    Calls Try.prog 40 #[.agg #[.int .i64 m, .slice a len ca]] w fun e w' => e = .returned (.int .i64 (32 * len + fldBytes xs)) ∧ Below w.heap.size w w' := by
  have HX : Hid (Flds w a len xs) := hx
  clear hx
  go_enter Try.func40, Try.ntmps40
  go_wp2
  generalize hw1 : w.alloc (Obj.cells #[Value.int IntKind.i64 m, Value.slice a len ca] 26) = w1
  have HB1 : Hid (Below w.heap.size w w1) := by show Below _ _ _; rw [← hw1]; exact (Below.refl _ _).alloc (Nat.le_refl _) _
  clear hw1
  go_loopw [3, 9] (fun v i wr => ∃ (k : Nat) (u : Int), k ≤ len ∧ i = .int .i64 k ∧ v = .int .i64 u ∧ 0 ≤ u ∧ u ≤ 80000000 ∧ Hid (u = 32 * k + fldBytes (xs.take k)) ∧ Hid (Below w.heap.size w wr)) (fun _ i _ => len - (intOf i).toNat)
  case atStart => exact ⟨0, 0, Nat.zero_le _, rfl, rfl, by omega, by omega, by show _ = _; simp [fldBytes], HB1⟩
  case round =>
    obtain ⟨k, u, hk, rfl, rfl, hu0, hu1, HU, HW⟩ := hrel
    by_cases hlt : k < len
    · obtain ⟨ba, oa, x, y, rfl, hba, hfa, ha0, ha1⟩ := HX.out.at hlt
      have ga0 : wr.cell? ⟨ba, oa + k * 2, none⟩ = some (.string x) := (HW.out.cell (p := ⟨ba, _, none⟩) hba).trans ha0
      have ga1 : wr.cell? ⟨ba, oa + k * 2 + 1, none⟩ = some (.string y) := (HW.out.cell (p := ⟨ba, _, none⟩) hba).trans ha1
      have hst := fldBytes_step xs k x y hfa
      have hle := fldBytes_take xs (k + 1)
      have hxy : x.size + y.size ≤ 2097152 := by omega
      have HF : Hid (fldBytes (xs.take (k + 1)) = fldBytes (xs.take k) + (x.size + y.size) ∧ fldBytes (xs.take (k + 1)) ≤ fldBytes xs) := ⟨hst, hle⟩
      clear hfa ha0 ha1 hst hle
      have hki : (k : Int) < (len : Int) := by omega
      have hk0 : (0 : Int) ≤ (k : Int) := by omega
      go_wp2_with fail
      refine (implOf4_any x y _ hxy).mono ?_
      rintro e x3 ⟨rfl, hb3⟩
      have HB3 : Hid (Below w.heap.size w x3) := (HW.out.alloc HW.out.size _).trans (hb3.mono (by rw [World.size_alloc]; exact Nat.le_succ_of_le HW.out.size))
      clear hb3
      go_wp2
      go_roundw
      case rel =>
        have h1 := HU.out
        have h2 := HF.out
        exact ⟨k + 1, _, by omega, by go_num, rfl, by omega, by omega, by show _ = _; omega, HB3⟩
      case measure => simp [intOf]; omega
    · go_wp2
      go_ret
      have hkl : k = len := by omega
      have h3 := HU.out
      have h4 := HX.out.1
      rw [List.take_of_length_le (by omega)] at h3
      exact ⟨ret_int (by omega), HW.out⟩

end Go.Proofs.Ytghakpcagacdaac

namespace Go.Proofs.Ytghakpcagacdaac
open Go.RowKit
set_option linter.unusedVariables false

/-- The cells of a ring: the newest field in the slot p, each older one a slot further on. -/
structure RingC (cs : Array Value) (p : Nat) (fs : List Fld) : Prop where
  size : cs.size = 259
  lt : p < 128
  few : fs.length ≤ 128
  front : cs[256]? = some (.int .i64 (p : Int))
  count : cs[257]? = some (.int .i64 (fs.length : Int))
  sum : cs[258]? = some (.int .i64 (szL fs : Int))
  one : ∀ k, k < 256 → ∃ x, cs[k]? = some (.string x)
  slot : ∀ i (hi : i < fs.length), cs[(p + i) % 128 * 2]? = some (.string (fs[i]).1) ∧ cs[(p + i) % 128 * 2 + 1]? = some (.string (fs[i]).2)

theorem set_get (cs : Array Value) (k j : Nat) (v : Value) (hk : k < cs.size) : (cs.setIfInBounds k v)[j]? = if k = j then some v else cs[j]? := by
  rw [Array.getElem?_setIfInBounds]
  split
  · first | rfl | rw [if_pos hk]
  · rfl

theorem RingC.push {cs : Array Value} {p : Nat} {fs : List Fld} (r : RingC cs p fs) (hn : fs.length < 128) (x y : ByteArray) (q : Nat) (hq : (p + 127) % 128 = q) :
    RingC (((((cs.setIfInBounds 256 (.int .i64 (q : Int))).setIfInBounds (q * 2) (.string x)).setIfInBounds (q * 2 + 1) (.string y)).setIfInBounds 257 (.int .i64 ((fs.length : Int) + 1))).setIfInBounds 258 (.int .i64 ((szL fs : Int) + ((x.size : Int) + (y.size : Int) + 32)))) q ((x, y) :: fs) := by
  have hp := r.lt
  have hz := r.size
  have hq' : q < 128 := by omega
  have g : ∀ j, (((((cs.setIfInBounds 256 (.int .i64 (q : Int))).setIfInBounds (q * 2) (.string x)).setIfInBounds (q * 2 + 1) (.string y)).setIfInBounds 257 (.int .i64 ((fs.length : Int) + 1))).setIfInBounds 258 (.int .i64 ((szL fs : Int) + ((x.size : Int) + (y.size : Int) + 32))))[j]? =
      if 258 = j then some (.int .i64 ((szL fs : Int) + ((x.size : Int) + (y.size : Int) + 32))) else if 257 = j then some (.int .i64 ((fs.length : Int) + 1)) else if q * 2 + 1 = j then some (.string y) else if q * 2 = j then some (.string x) else if 256 = j then some (.int .i64 (q : Int)) else cs[j]? := by
    intro j
    rw [set_get _ _ _ _ (by simp; omega), set_get _ _ _ _ (by simp; omega), set_get _ _ _ _ (by simp; omega), set_get _ _ _ _ (by simp; omega), set_get _ _ _ _ (by omega)]
  refine ⟨by simp; omega, hq', by simp; omega, ?_, ?_, ?_, ?_, ?_⟩
  · rw [g, if_neg (by omega), if_neg (by omega), if_neg (by omega), if_neg (by omega), if_pos rfl]
  · rw [g, if_neg (by omega), if_pos rfl]
    simp
  · rw [g, if_pos rfl, szL_cons]
    congr 2
    simp only [Int.natCast_add]
    omega
  · intro k hk
    rw [g, if_neg (by omega), if_neg (by omega)]
    by_cases h1 : q * 2 + 1 = k
    · exact ⟨y, by rw [if_pos h1]⟩
    · rw [if_neg h1]
      by_cases h2 : q * 2 = k
      · exact ⟨x, by rw [if_pos h2]⟩
      · rw [if_neg h2, if_neg (by omega)]
        exact r.one k hk
  · intro i hi
    cases i with
    | zero =>
      have e : (q + 0) % 128 = q := by omega
      rw [e, g, g, if_neg (by omega), if_neg (by omega), if_neg (by omega), if_pos rfl, if_neg (by omega), if_neg (by omega), if_pos rfl]
      exact ⟨rfl, rfl⟩
    | succ i =>
      have hi' : i < fs.length := by simpa using hi
      have e : (q + (i + 1)) % 128 = (p + i) % 128 := by omega
      have e2 : (p + i) % 128 ≠ q := by omega
      have e3 : (p + i) % 128 < 128 := Nat.mod_lt _ (by omega)
      rw [e, g, g, if_neg (by omega), if_neg (by omega), if_neg (by omega), if_neg (by omega), if_neg (by omega), if_neg (by omega), if_neg (by omega), if_neg (by omega), if_neg (by omega), if_neg (by omega)]
      exact r.slot i hi'

/-- A ring in the block b. -/
def Ring (W : World) (b p : Nat) (fs : List Fld) : Prop := ∃ cs, W.heap[b]? = some (.cells cs 166 (0, 0)) ∧ RingC cs p fs

theorem Ring.lt {W : World} {b p : Nat} {fs : List Fld} (h : Ring W b p fs) : b < W.heap.size := by
  obtain ⟨cs, h, _⟩ := h
  exact (Array.getElem?_eq_some_iff.1 h).1

theorem Ring.stays {W W' : World} {b p : Nat} {fs : List Fld} (h : Ring W b p fs) (hb : Below W.heap.size W W') : Ring W' b p fs := by
  have hl := h.lt
  obtain ⟨cs, h, r⟩ := h
  exact ⟨cs, (hb.block b hl).trans h, r⟩

theorem Ring.kept {W W' : World} {b p : Nat} {fs : List Fld} {row : Option Nat} (h : Ring W b p fs) (hg : W.grownBy W' row) (hne : some b ≠ row) : Ring W' b p fs := by
  have hl := h.lt
  obtain ⟨cs, h, r⟩ := h
  exact ⟨cs, (hg.block b hl hne).trans h, r⟩

/-- A world that has grown from w, but for the block b, which has these cells. -/
structure RG (w : World) (b : Nat) (cs : Array Value) (W : World) : Prop where
  block : W.heap[b]? = some (.cells cs 166 (0, 0))
  grown : w.grownBy W (some b)

theorem RG.cell {w W : World} {b : Nat} {cs : Array Value} (h : RG w b cs W) {k : Nat} {v : Value} (hk : cs[k]? = some v) : W.cell? ⟨b, k, none⟩ = some v := (cell_of_row _ _ _ _ _ _ h.block).trans hk
theorem RG.free {w W : World} {b : Nat} {cs : Array Value} (h : RG w b cs W) (k : Nat) : W.frozen? ⟨b, k, none⟩ = false := by
  have := h.block
  simp [World.frozen?, this]
theorem RG.set {w W : World} {b : Nat} {cs : Array Value} (h : RG w b cs W) (k : Nat) (v : Value) : RG w b (cs.setIfInBounds k v) (W.setCell ⟨b, k, none⟩ v) := by
  refine ⟨?_, h.grown.os, h.grown.tape, h.grown.output, ?_, fun q hq hne => ?_⟩
  · rw [setCell_eq_setRow W b k cs _ (0, 0) _ h.block, setRow_heap W b cs _ _ (0, 0) h.block]
  · have : (W.setCell ⟨b, k, none⟩ v).heap.size = W.heap.size := by simp [World.setCell]
    rw [this]
    exact h.grown.size
  · rw [set_block_other _ _ _ _ _ (fun e => hne (by rw [e]))]
    exact h.grown.block q hq hne
theorem RG.drew {w W : World} {b : Nat} {cs : Array Value} (h : RG w b cs W) : RG w b cs W.drew := ⟨h.block, h.grown.os, h.grown.tape, h.grown.output, h.grown.size, h.grown.block⟩
theorem RG.stays {w W W' : World} {b : Nat} {cs : Array Value} (h : RG w b cs W) (hb : Below W.heap.size W W') : RG w b cs W' :=
  ⟨(hb.block b (Array.getElem?_eq_some_iff.1 h.block).1).trans h.block, hb.os.trans h.grown.os, hb.tape.trans h.grown.tape, hb.output.trans h.grown.output, Nat.le_trans h.grown.size hb.size, fun q hq hne => (hb.block q (Nat.lt_of_lt_of_le hq h.grown.size)).trans (h.grown.block q hq hne)⟩
theorem RG.alloc {w W : World} {b : Nat} {cs : Array Value} (h : RG w b cs W) (o : Obj) : RG w b cs (W.alloc o) := h.stays ((Below.refl _ _).alloc (Nat.le_refl _) _)
theorem RG.refl {w : World} {b : Nat} {cs : Array Value} (h : w.heap[b]? = some (.cells cs 166 (0, 0))) : RG w b cs w := ⟨h, rfl, rfl, rfl, Nat.le_refl _, fun _ _ _ => rfl⟩

theorem Box2.set_other {W : World} {b g : Nat} {t : TypeId} {x y : Value} (h : Box2 W b t x y) (k : Nat) (v : Value) (hne : b ≠ g) : Box2 (W.setCell ⟨g, k, none⟩ v) b t x y := (set_block_other _ _ _ _ _ hne).trans h

set_option maxHeartbeats 400000 in
theorem slot_any (b p k : Nat) (w : World) (hc : w.cell? ⟨b, 256, none⟩ = some (.int .i64 (p : Int))) (hf : p < 128) (hk : k ≤ 128) :
    Calls Try.prog 111 #[.pointer (some ⟨b, 0, none⟩), .int .i64 (k : Int)] w fun e w' => e = .returned (.int .i64 (((p + k) % 128 : Nat) : Int)) ∧ w' = w := by
  have hfi : (p : Int) < 128 := by omega
  have hki : (k : Int) ≤ 128 := by omega
  go_enter Try.func111, Try.ntmps111
  go_wp2
  go_ret
  exact ⟨ret_int (by omega), rfl⟩

set_option maxRecDepth 10000 in
set_option maxHeartbeats 1600000 in
theorem push_any (b p : Nat) (fs : List Fld) (x y : ByteArray) (w : World) (h : Ring w b p fs) (hn : fs.length < 128) (hs : szL fs ≤ 100000) (hxy : x.size + y.size ≤ 100000) :
    Calls Try.prog 100 #[.pointer (some ⟨b, 0, none⟩), .agg #[.string x, .string y]] w fun e w' => ∃ v, e = .returned v ∧ Ring w' b ((p + 127) % 128) ((x, y) :: fs) ∧ w.grownBy w' (some b) := by
  obtain ⟨cs, hcs, r⟩ := h
  have hbl : b < w.heap.size := (Array.getElem?_eq_some_iff.1 hcs).1
  obtain ⟨q, hq⟩ : ∃ q, (p + 127) % 128 = q := ⟨_, rfl⟩
  have hq' : q < 128 := by omega
  have HRC := r.push hn x y q hq
  rw [hq]
  have g0 := (RG.refl hcs).alloc (.cells #[.string x, .string y] 36)
  have HP := slot_any b p 127 _ (g0.cell r.front) r.lt (by omega)
  rw [hq] at HP
  have HP' : Hid (Calls Try.prog 111 #[.pointer (some ⟨b, 0, none⟩), .int .i64 127] (w.alloc (Obj.cells #[Value.string x, Value.string y] 36)) fun e w' => e = .returned (.int .i64 ((q : Nat) : Int)) ∧ w' = w.alloc (Obj.cells #[Value.string x, Value.string y] 36)) := HP
  have c0 := g0.cell r.front
  have f0 := g0.free 256
  have HRC' : Hid (RingC (((((cs.setIfInBounds 256 (.int .i64 (q : Int))).setIfInBounds (q * 2) (.string x)).setIfInBounds (q * 2 + 1) (.string y)).setIfInBounds 257 (.int .i64 ((fs.length : Int) + 1))).setIfInBounds 258 (.int .i64 ((szL fs : Int) + ((x.size : Int) + (y.size : Int) + 32)))) q ((x, y) :: fs)) := HRC
  have HR : Hid (RingC cs p fs) := r
  have HCS : Hid (w.heap[b]? = some (.cells cs 166 (0, 0))) := hcs
  clear HP HRC r g0 hcs
  have hqi : (q : Int) < 128 := by omega
  go_enter Try.func100, Try.ntmps100
  go_wp2_with fail
  refine HP'.out.mono ?_
  rintro e w1 ⟨rfl, rfl⟩
  go_wp2_with fail
  obtain ⟨V1, hV1⟩ : ∃ V1, (w.setCell ⟨b, 256, none⟩ (.int .i64 (q : Int))).alloc (Obj.cells #[Value.string x, Value.string y] 36) = V1 := ⟨_, rfl⟩
  have G1 : RG w b (cs.setIfInBounds 256 (.int .i64 (q : Int))) V1 := by rw [← hV1]; exact ((RG.refl HCS.out).set _ _).alloc _
  have Q1 : Box2 V1 w.heap.size 36 (.string x) (.string y) := by
    rw [← hV1]
    have := Box2.new (w.setCell ⟨b, 256, none⟩ (.int .i64 (q : Int))) 36 (.string x) (.string y)
    simpa using this
  have hz := HR.out.size
  obtain ⟨u0, hu0⟩ := HR.out.one (q * 2) (by omega)
  obtain ⟨u1, hu1⟩ := HR.out.one (q * 2 + 1) (by omega)
  rw [hV1]
  have d0 := G1.cell (k := 256) (v := .int .i64 (q : Int)) (by rw [set_get _ _ _ _ (by omega), if_pos rfl])
  have d1 := G1.cell (k := q * 2) (v := .string u0) (by rw [set_get _ _ _ _ (by omega), if_neg (by omega)]; exact hu0)
  have d2 := G1.cell (k := q * 2 + 1) (v := .string u1) (by rw [set_get _ _ _ _ (by omega), if_neg (by omega)]; exact hu1)
  have e1 := G1.free (q * 2)
  have e2 := G1.free (q * 2 + 1)
  obtain ⟨x0, x1, _, _⟩ := Q1.cells
  clear c0 f0 hV1 hu0 hu1
  go_region
  obtain ⟨V2, hV2⟩ : ∃ V2, ((V1.setCell ⟨b, q * 2, none⟩ (.string x)).setCell ⟨b, q * 2 + 1, none⟩ (.string y)).drew = V2 := ⟨_, rfl⟩
  have G2 : RG w b (((cs.setIfInBounds 256 (.int .i64 (q : Int))).setIfInBounds (q * 2) (.string x)).setIfInBounds (q * 2 + 1) (.string y)) V2 := by rw [← hV2]; exact ((G1.set _ _).set _ _).drew
  have Q2 : Box2 V2 w.heap.size 36 (.string x) (.string y) := by rw [← hV2]; exact (Q1.set_other _ _ (by omega)).set_other _ _ (by omega)
  rw [hV2]
  have hg : ∀ j, 256 < j → (((cs.setIfInBounds 256 (.int .i64 (q : Int))).setIfInBounds (q * 2) (.string x)).setIfInBounds (q * 2 + 1) (.string y))[j]? = cs[j]? := by
    intro j hj
    rw [set_get _ _ _ _ (by simp; omega), if_neg (by omega), set_get _ _ _ _ (by simp; omega), if_neg (by omega), set_get _ _ _ _ (by omega), if_neg (by omega)]
  have k1 := G2.cell (k := 257) (v := .int .i64 (fs.length : Int)) ((hg 257 (by omega)).trans HR.out.count)
  have k2 := G2.cell (k := 258) (v := .int .i64 (szL fs : Int)) ((hg 258 (by omega)).trans HR.out.sum)
  have m1 := G2.free 257
  have hni : (fs.length : Int) < 128 := by omega
  have HSum : Hid ((((cs.setIfInBounds 256 (.int .i64 (q : Int))).setIfInBounds (q * 2) (.string x)).setIfInBounds (q * 2 + 1) (.string y)).size = 259 ∧ (((cs.setIfInBounds 256 (.int .i64 (q : Int))).setIfInBounds (q * 2) (.string x)).setIfInBounds (q * 2 + 1) (.string y))[258]? = some (.int .i64 (szL fs : Int))) := ⟨by simp; omega, (hg 258 (by omega)).trans HR.out.sum⟩
  clear hV2 d0 d1 d2 e1 e2 x0 x1 G1 Q1 hg
  generalize (((cs.setIfInBounds 256 (.int .i64 (q : Int))).setIfInBounds (q * 2) (.string x)).setIfInBounds (q * 2 + 1) (.string y)) = c2 at *
  go_wp2_with fail
  obtain ⟨V3, hV3⟩ : ∃ V3, V2.setCell ⟨b, 257, none⟩ (.int .i64 ((fs.length : Int) + 1)) = V3 := ⟨_, rfl⟩
  have G3 : RG w b (c2.setIfInBounds 257 (.int .i64 ((fs.length : Int) + 1))) V3 := by rw [← hV3]; exact G2.set _ _
  have Q3 : Box2 V3 w.heap.size 36 (.string x) (.string y) := by rw [← hV3]; exact Q2.set_other _ _ (by omega)
  rw [hV3]
  have j2 : (c2.setIfInBounds 257 (.int .i64 ((fs.length : Int) + 1)))[258]? = some (.int .i64 (szL fs : Int)) := by
    rw [set_get _ _ _ _ (by rw [HSum.out.1]; omega), if_neg (by omega)]
    exact HSum.out.2
  have l2 := G3.cell j2
  obtain ⟨y0, y1, _, _⟩ := Q3.cells
  clear hV3 k1 k2 m1 G2 Q2
  have hsi : (szL fs : Int) ≤ 100000 := by omega
  have hxi : (x.size : Int) + (y.size : Int) ≤ 100000 := by omega
  go_region_with (first
    | (go_at_call 74; refine (implOf4_any x y _ (by omega)).mono ?_; rintro e V4 ⟨rfl, hb4⟩; have G4 := G3.drew.stays hb4; have n2 := G4.cell j2; have n3 := G4.free 258))
  all_goals
    have G5 := G4.set 258 (.int .i64 ((szL fs : Int) + ((x.size : Int) + (y.size : Int) + 32)))
    clear hb4 G3 Q3 l2 y0 y1 n2 n3
    go_wp2_with fail
    go_end0
    have hwr : IntKind.i64.wrap ((szL fs : Int) + ((x.size : Int) + (y.size : Int) + 32)) = (szL fs : Int) + ((x.size : Int) + (y.size : Int) + 32) := by simp [IntKind.wrap, go_sem]; omega
    rw [hwr]
    exact ⟨_, rfl, ⟨_, G5.block, HRC'.out⟩, G5.grown⟩

end Go.Proofs.Ytghakpcagacdaac

namespace Go.Proofs.Ytghakpcagacdaac
open Go.RowKit
set_option linter.unusedVariables false

theorem RingC.drop {cs : Array Value} {p : Nat} {fs : List Fld} (r : RingC cs p fs) (n : Nat) (hn : fs.length = n + 1) (z : Int) (hz : z = (szL (fs.take n) : Int)) :
    RingC ((cs.setIfInBounds 257 (.int .i64 (n : Int))).setIfInBounds 258 (.int .i64 z)) p (fs.take n) := by
  have hs := r.size
  have hl : (fs.take n).length = n := by rw [List.length_take]; omega
  have g : ∀ j, ((cs.setIfInBounds 257 (.int .i64 (n : Int))).setIfInBounds 258 (.int .i64 z))[j]? = if 258 = j then some (.int .i64 z) else if 257 = j then some (.int .i64 (n : Int)) else cs[j]? := by
    intro j
    rw [set_get _ _ _ _ (by simp; omega), set_get _ _ _ _ (by omega)]
  refine ⟨by simp; omega, r.lt, by have := r.few; omega, ?_, ?_, ?_, ?_, ?_⟩
  · rw [g, if_neg (by omega), if_neg (by omega)]; exact r.front
  · rw [g, if_neg (by omega), if_pos rfl, hl]
  · rw [g, if_pos rfl, hz]
  · intro k hk
    rw [g, if_neg (by omega), if_neg (by omega)]
    exact r.one k hk
  · intro i hi
    have h3 : (p + i) % 128 < 128 := Nat.mod_lt _ (by omega)
    have hi' : i < fs.length := by omega
    rw [g, g, if_neg (by omega), if_neg (by omega), if_neg (by omega), if_neg (by omega), List.getElem_take]
    exact r.slot i hi'

set_option maxRecDepth 10000 in
set_option maxHeartbeats 1600000 in
theorem drop_any (b p : Nat) (fs : List Fld) (n : Nat) (w : World) (h : Ring w b p fs) (hn : fs.length = n + 1) (hs : szL fs ≤ 100000) :
    Calls Try.prog 110 #[.pointer (some ⟨b, 0, none⟩)] w fun e w' => ∃ v, e = .returned v ∧ Ring w' b p (fs.take n) ∧ w.grownBy w' (some b) := by
  obtain ⟨cs, hcs, r⟩ := h
  have hbl : b < w.heap.size := (Array.getElem?_eq_some_iff.1 hcs).1
  have hnl : n < fs.length := by omega
  have hst := szL_take_step fs n hnl
  rw [List.take_of_length_le (by omega)] at hst
  obtain ⟨x, hx⟩ : ∃ x, (fs[n]).1 = x := ⟨_, rfl⟩
  obtain ⟨y, hy⟩ : ∃ y, (fs[n]).2 = y := ⟨_, rfl⟩
  have hsl := r.slot n hnl
  rw [hx, hy] at hst hsl
  have hfew := r.few
  have hp := r.lt
  obtain ⟨q, hq⟩ : ∃ q, (p + n) % 128 = q := ⟨_, rfl⟩
  have hq' : q < 128 := by omega
  rw [hq] at hsl
  have G0 := RG.refl hcs
  have c1 := G0.cell r.count
  rw [hn] at c1
  have f1 := G0.free 257
  have HR : Hid (RingC cs p fs) := r
  have HG0 : Hid (RG w b cs w) := G0
  have HS : Hid (cs[q * 2]? = some (.string x) ∧ cs[q * 2 + 1]? = some (.string y)) := hsl
  have HT : Hid (szL fs = szL (fs.take n) + (32 + x.size + y.size)) := hst
  have HZ : Hid ((szL fs : Int) - ((x.size : Int) + (y.size : Int) + 32) = (szL (fs.take n) : Int)) := by show _ = _; omega
  have hci : ((n + 1 : Nat) : Int) = (n : Int) + 1 := by omega
  rw [hci] at c1
  have hni : (n : Int) < 128 := by omega
  clear r hcs hst hsl G0
  go_enter Try.func110, Try.ntmps110
  go_wp2_with fail
  obtain ⟨V1, hV1⟩ : ∃ V1, w.setCell ⟨b, 257, none⟩ (.int .i64 (n : Int)) = V1 := ⟨_, rfl⟩
  have G1 : RG w b (cs.setIfInBounds 257 (.int .i64 (n : Int))) V1 := by rw [← hV1]; exact HG0.out.set _ _
  rw [hV1]
  have hz := HR.out.size
  have hg : ∀ j, j ≠ 257 → (cs.setIfInBounds 257 (.int .i64 (n : Int)))[j]? = cs[j]? := by
    intro j hj
    rw [set_get _ _ _ _ (by omega), if_neg (by omega)]
  have j2 : (cs.setIfInBounds 257 (.int .i64 (n : Int)))[258]? = some (.int .i64 (szL fs : Int)) := (hg 258 (by omega)).trans HR.out.sum
  have d0 := G1.cell ((hg 256 (by omega)).trans HR.out.front)
  have d1 := G1.cell (k := 257) (v := .int .i64 (n : Int)) (by rw [set_get _ _ _ _ (by omega), if_pos rfl])
  have d2 := G1.cell j2
  have d3 := G1.cell ((hg (q * 2) (by omega)).trans HS.out.1)
  have d4 := G1.cell ((hg (q * 2 + 1) (by omega)).trans HS.out.2)
  have HD0 : Hid (V1.drew.cell? ⟨b, 256, none⟩ = some (.int .i64 (p : Int))) := G1.drew.cell ((hg 256 (by omega)).trans HR.out.front)
  have hT := HT.out
  have hxy : x.size + y.size ≤ 100000 := by omega
  have hsi : (szL fs : Int) ≤ 100000 := by omega
  have hqi : (q : Int) < 128 := by omega
  have HP : Hid (∀ W : World, W.cell? ⟨b, 256, none⟩ = some (.int .i64 (p : Int)) → Calls Try.prog 111 #[.pointer (some ⟨b, 0, none⟩), .int .i64 (n : Int)] W fun e w' => e = .returned (.int .i64 ((q : Nat) : Int)) ∧ w' = W) := by
    intro W hW
    have := slot_any b p n W hW hp (by omega)
    rw [hq] at this
    exact this
  clear hg hV1 c1 f1 hT HT
  go_region_with (first
    | (go_at_call 111; refine (HP.out _ HD0.out).mono ?_; rintro e V3 ⟨rfl, rfl⟩)
    | (go_at_call 74; refine (implOf4_any x y _ (by omega)).mono ?_; rintro e V4 ⟨rfl, hb4⟩; have G4 := G1.drew.stays hb4; have n2 := G4.cell j2; have n3 := G4.free 258))
  all_goals
    have G5 := G4.set 258 (.int .i64 ((szL fs : Int) - ((x.size : Int) + (y.size : Int) + 32)))
    clear hb4 G1 d0 d1 d2 d3 d4 n2 n3
    go_wp2_with fail
    go_end0
    have hwr : IntKind.i64.wrap ((szL fs : Int) - ((x.size : Int) + (y.size : Int) + 32)) = (szL fs : Int) - ((x.size : Int) + (y.size : Int) + 32) := by
      have := HZ.out
      simp [IntKind.wrap, go_sem]
      omega
    rw [hwr]
    exact ⟨_, rfl, ⟨_, G5.block, HR.out.drop n hn _ HZ.out⟩, G5.grown⟩

end Go.Proofs.Ytghakpcagacdaac

namespace Go.Proofs.Ytghakpcagacdaac
open Go.RowKit
set_option linter.unusedVariables false

theorem run_append_src {P : Program} (w : World) (base : Nat) (t ty e : TypeId) (i : TypeInfo) (z : Value) (size bytes : Nat) (ht : P.underlying t = some (.slice e)) (hi : P.info? e = some i) (hz : i.zero = some z)
    (hsize : i.size = size) (hby : i.bytes = bytes) (hzs : z.cells.size = size) (hsz : 0 < size)
    (g n cap : Nat) (xs : List Value) (hown : w.ownsRow base e size (.slice (some ⟨g, 0, none⟩) n cap) n xs)
    (src : Option Addr) (m c : Nat) (news : List Value) (hnone : src = none → m = 0) (hl : news.length = m * size) (hnews : ∀ ad, src = some ad → ∀ j u, news[j]? = some u → w.cell? (ad.add j) = some u) (h1 : ∀ u ∈ news, u.oneCell' = true)
    (h63 : n + m ≤ maxLen) (hbytes : (n + m) * bytes ≤ 140737488355328) (hbase : base ≤ w.heap.size) :
    ∃ v' w', (Builtin.append_ #[t, t] ty #[.slice (some ⟨g, 0, none⟩) n cap, .slice src m c]).run P w = .ok v' w' ∧ w'.ownsRow base e size v' (n + m) (xs ++ news) ∧ w.grownBy w' (some g) := by
  cases src with
  | some ad =>
    obtain ⟨v', w', hr, r1, r2, _⟩ := run_append_own (P := P) w base t ty e i z size bytes ht hi hz hsize hby hzs hsz (.slice (some ⟨g, 0, none⟩) n cap) n xs hown ad m c news hl (hnews ad rfl) h1 h63 hbytes hbase
    exact ⟨v', w', hr, r1, r2⟩
  | none =>
    obtain rfl := hnone rfl
    obtain rfl : news = [] := List.eq_nil_of_length_eq_zero (by simpa using hl)
    have hcap : n ≤ cap := by
      rcases hown.2 with ⟨h, _⟩ | ⟨g', cap', cur, h, _, _, hc, _⟩
      · cases h
      · injection h with _ _ h3
        omega
    have hr := run_append_room_src (P := P) w t t ty e i ht hi g 0 n cap (.slice none 0 c) 0 [] (Src.ofNil w ht c) (by omega) (by intro j hj; simp at hj) (by intro j hj; simp at hj)
    refine ⟨_, _, hr, ?_, ?_⟩
    · rw [List.append_nil]
      exact hown
    · exact ⟨rfl, rfl, rfl, Nat.le_refl _, fun _ _ _ => rfl⟩

theorem wp_append_src {P : Program} {o : Oper} {a : Act} {w : World} {K : Act → World → Prop} {Q : Exit → Act → World → Prop} (s x : Operand) (t : TypeId)
    (ho : o.op = .call { callee := .builtin .append, args := #[s, x], argTypes := #[t, t] })
    (base : Nat) (e : TypeId) (i : TypeInfo) (z : Value) (size bytes : Nat) (ht : P.underlying t = some (.slice e)) (hi : P.info? e = some i) (hz : i.zero = some z)
    (hsize : i.size = size) (hby : i.bytes = bytes) (hzs : z.cells.size = size) (hsz : 0 < size)
    (g n cap : Nat) (xs : List Value) (hs : a.eval s = .slice (some ⟨g, 0, none⟩) n cap) (hown : w.ownsRow base e size (.slice (some ⟨g, 0, none⟩) n cap) n xs)
    (src : Option Addr) (m c : Nat) (news : List Value) (hx : a.eval x = .slice src m c) (hnone : src = none → m = 0) (hl : news.length = m * size) (hnews : ∀ ad, src = some ad → ∀ j u, news[j]? = some u → w.cell? (ad.add j) = some u) (h1 : ∀ u ∈ news, u.oneCell' = true)
    (h63 : n + m ≤ maxLen) (hbytes : (n + m) * bytes ≤ 140737488355328) (hbase : base ≤ w.heap.size)
    (h : ∀ v' w', w'.ownsRow base e size v' (n + m) (xs ++ news) → w.grownBy w' (some g) → K (a.put o.dst v') w') : o.wp P a w K Q := by
  obtain ⟨v', w', hr, h2, h3⟩ := run_append_src (P := P) w base t o.type e i z size bytes ht hi hz hsize hby hzs hsz g n cap xs hown src m c news hnone hl hnews h1 h63 hbytes hbase
  unfold Oper.wp execOp
  simp only [ho, resolve, invoke, builtin, Sem.run_bind, Sem.run_pure, Result.andThen_ok, List.map_toArray, List.map_cons, List.map_nil, hs, hx, hr]
  exact h v' w' h2 h3

theorem step_append_src {P : Program} {ops : Array Oper} {o : Oper} {a : Act} {w : World} {K : Act → World → Prop} {Q : Exit → Act → World → Prop} {E : Prop} (hg : o.guard = none) (s x : Operand) (t : TypeId)
    (ho : o.op = .call { callee := .builtin .append, args := #[s, x], argTypes := #[t, t] })
    (base : Nat) (e : TypeId) (i : TypeInfo) (z : Value) (size bytes : Nat) (ht : P.underlying t = some (.slice e)) (hi : P.info? e = some i) (hz : i.zero = some z)
    (hsize : i.size = size) (hby : i.bytes = bytes) (hzs : z.cells.size = size) (hsz : 0 < size)
    (g n cap : Nat) (xs : List Value) (hs : a.eval s = .slice (some ⟨g, 0, none⟩) n cap) (hown : w.ownsRow base e size (.slice (some ⟨g, 0, none⟩) n cap) n xs)
    (src : Option Addr) (m c : Nat) (news : List Value) (hx : a.eval x = .slice src m c) (hnone : src = none → m = 0) (hl : news.length = m * size) (hnews : ∀ ad, src = some ad → ∀ j u, news[j]? = some u → w.cell? (ad.add j) = some u) (h1 : ∀ u ∈ news, u.oneCell' = true)
    (h63 : n + m ≤ maxLen) (hbytes : (n + m) * bytes ≤ 140737488355328) (hbase : base ≤ w.heap.size)
    (h : ∀ v' w', w'.ownsRow base e size v' (n + m) (xs ++ news) → w.grownBy w' (some g) → K (a.put o.dst v') w') :
    if Region.wanted o (yielded ops a.tmps) = true then Oper.wp P o a w K Q else E := by
  have hw : Region.wanted o (yielded ops a.tmps) = true := by simp [Region.wanted, hg]
  rw [if_pos hw]
  exact wp_append_src s x t ho base e i z size bytes ht hi hz hsize hby hzs hsz g n cap xs hs hown src m c news hx hnone hl hnews h1 h63 hbytes hbase h

theorem step_call_any {P : Program} {ops : Array Oper} {o : Oper} {a : Act} {w : World} {K : Act → World → Prop} {Q : Exit → Act → World → Prop} {E : Prop}
    (hg : o.guard = none) (f : FuncId) (x : Operand) (t : TypeId) (ho : o.op = .call { callee := .value (.func f), args := #[x], argTypes := #[t] })
    (hent : ∀ args w, (callFunc f args).run P w = .ok (.enter f args) w) (u : Value) (hx : a.eval x = u) (R : Ending → World → Prop)
    (hc : Calls P f #[u] w R) (h : ∀ e w', R e w' → ∃ v, e = .returned v ∧ K (a.put o.dst v) w') :
    if Region.wanted o (yielded ops a.tmps) = true then Oper.wp P o a w K Q else E := by
  have hw : Region.wanted o (yielded ops a.tmps) = true := by simp [Region.wanted, hg]
  rw [if_pos hw]
  have hf : a.eval (.func f) = .func (.func f) #[] #[] := rfl
  unfold Oper.wp
  simp [execOp, ho, resolve, invoke, Deferred.ofValue, hent, hf, hx, Oper.upon_enter]
  refine hc.mono ?_
  intro e w' hr
  obtain ⟨v, rfl, hk⟩ := h e w' hr
  exact hk

end Go.Proofs.Ytghakpcagacdaac

namespace Go.Proofs.Ytghakpcagacdaac
open Go.RowKit
set_option linter.unusedVariables false

/-- An append of new elements onto nil. -/
theorem run_append_made {P : Program} (w : World) (t ti ty e : TypeId) (i : TypeInfo) (z : Value) (ht : P.underlying t = some (.slice e)) (hti : P.underlying ti = some (.int .i64)) (hi : P.info? e = some i) (hz : i.zero = some z)
    (n : Nat) (h0 : 0 < n) (hs : 0 < i.size) (h63 : (n : Int) ≤ 9223372036854775807) (hb : n * i.bytes ≤ 281474976710656) :
    (Builtin.append_ #[t, ti] ty #[.slice none 0 0, .int .i64 n]).run P w = .ok (.slice (some ⟨w.heap.size, 0, none⟩) n (grownCap w n 0 e)) (w.drew.alloc (.cells (Builtin.zeroCells z.cells n ++ Builtin.zeroCells z.cells (grownCap w n 0 e - n)) e)) := by
  have ha : ∀ w : World, (asInt (.int .i64 (n : Int))).run P w = .ok (n : Int) w := fun w => by simp [asInt, asIntOf]
  have hw : IntKind.i64.wrap (n : Int) = (n : Int) := by simp [IntKind.wrap, go_sem]; omega
  have hn : ¬ ((n : Int) < 0) := by omega
  have h1 : ¬ (281474976710656 < (n : Int) * (i.bytes : Int)) := by
    have : ((n * i.bytes : Nat) : Int) ≤ 281474976710656 := by omega
    rw [Int.natCast_mul] at this
    omega
  have h2 : ¬ (n = 0) := by omega
  have h3 : ¬ (n * i.size = 0) := by
    have := Nat.mul_pos h0 hs
    omega
  have h4 : ¬ (9223372036854775807 < (n : Int)) := by omega
  have h5 : Builtin.nextslicecap n 0 = n := by simp [Builtin.nextslicecap, h0]
  have h6 : ¬ (281474976710656 < n * i.bytes) := by omega
  simp [Builtin.append_, run_underlying ht, run_underlying hti, sizeOf, typeInfo, zeroValue, hi, hz, hw, hn, h1, h2, h3, h4, h5, h6, Question.forced, newRow, grownCap, Builtin.firstCells, ha]

theorem size_zeros (z : Array Value) (n : Nat) : (Builtin.zeroCells z n).size = n * z.size := by simp [Builtin.zeroCells]

theorem wpList_append_made {P : Program} (w : World) {ops : Array Oper} {rest : List Oper} {o : Oper} {a : Act} {Q : Exit → Act → World → Prop} (hg : o.guard = none) (s x : Operand) (t ti : TypeId) (ho : o.op = .call { callee := .builtin .append, args := #[s, x], argTypes := #[t, ti] })
    (e : TypeId) (i : TypeInfo) (z : Value) (ht : P.underlying t = some (.slice e)) (hti : P.underlying ti = some (.int .i64)) (hi : P.info? e = some i) (hz : i.zero = some z) (hzs : z.cells.size = i.size)
    (n : Nat) (hs : a.eval s = .slice none 0 0) (hx : a.eval x = .int .i64 n) (h0 : 0 < n) (hs0 : 0 < i.size) (h63 : n ≤ maxLen) (hb : n * i.bytes ≤ 281474976710656)
    (hK : ∀ (cap : Nat) (cur : Array Value), n ≤ cap → cap ≤ maxLen → cur.size = cap * i.size → wpList P ops Q rest (a.put o.dst (.slice (some ⟨w.heap.size, 0, none⟩) n cap)) (w.drew.alloc (.cells cur e))) : wpList P ops Q (o :: rest) a w := by
  refine wpList_plain hg fun K hK' => ?_
  have hr := run_append_made (P := P) w t ti o.type e i z ht hti hi hz n h0 hs0 (by unfold maxLen at h63; omega) hb
  unfold Oper.wp execOp
  simp only [ho, resolve, invoke, builtin, Sem.run_bind, Sem.run_pure, Result.andThen_ok, List.map_toArray, List.map_cons, List.map_nil, hs, hx, hr]
  refine hK' _ _ (hK _ _ (grownCap_ge _ _ _ _) (grownCap_le_maxLen _ _ _ _ h63) ?_)
  have := grownCap_ge w n 0 e
  rw [Array.size_append, size_zeros, size_zeros, hzs, ← Nat.add_mul]
  congr 1
  omega

set_option maxRecDepth 10000 in
set_option maxHeartbeats 800000 in
theorem grow_any (n : Nat) (w : World) (h0 : 0 < n) (hn : n ≤ 2097300) :
    Calls Try.prog 104 #[.slice none 0 0, .int .i64 n] w fun e w' => ∃ g cap, e = .returned (.slice (some ⟨g, 0, none⟩) 0 cap) ∧ OwnF w' w.heap.size (.slice (some ⟨g, 0, none⟩) 0 cap) 0 [] ∧ Below w.heap.size w w' := by
  obtain ⟨i0, hi, hz0, hz1, hz2⟩ := info_parts info_field
  have HA : Hid (0 < i0.size ∧ n ≤ maxLen ∧ n * i0.bytes ≤ 281474976710656) := ⟨by rw [hz1]; omega, by unfold maxLen; omega, by rw [hz2]; omega⟩
  have hpos : (0 : Int) < (n : Int) := by omega
  have hbig : (n : Int) ≤ 2097300 := by omega
  go_enter Try.func104, Try.ntmps104
  go_wp2_with (first | (refine wpList_append_made _ rfl _ _ 24 3 rfl 36 i0 (.agg #[.string ⟨#[]⟩, .string ⟨#[]⟩]) Try.underlying24 Try.underlying3 hi hz0 (by rw [hz1]; rfl) n rfl rfl h0 HA.out.1 HA.out.2.1 HA.out.2.2 ?_; intro cap cur hc1 hc2 hc3; have hci : (0 : Int) ≤ (cap : Int) := by omega) | fail)
  go_ret
  refine ⟨_, cap, rfl, ⟨?_, fun f hf => by cases hf⟩, (Below.refl _ _).drew.alloc (Nat.le_refl _) _⟩
  rw [hz1] at hc3
  exact World.ownsRow_made w.drew cur cap (Nat.le_refl _) hc2 hc3

end Go.Proofs.Ytghakpcagacdaac
