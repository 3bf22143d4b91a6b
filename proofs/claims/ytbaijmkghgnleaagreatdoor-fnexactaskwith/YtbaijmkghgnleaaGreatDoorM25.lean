/- Rows of frames as they are read, wherever their bodies lie; their bytes. No statement of the program but its table of types. The frames of data that a body comes to: a model. A frame more in a row of frames. The library's Concat of two slices of frames, wherever their bodies lie. What AskWith answers: a model, and what it needs. Variables of three cells. No program in it. Variables of three and of four cells, written into. No program in it. A variable of any number of cells: no program in it. Pure facts of AskWith: the frames of a block come to bytes, the frames of a body one by one. A list of bytes as what is appended. No program in it. What the specification's FrameOk answer: whether each number is within its bounds and the body is no longer than it may be; nothing that was there is written. -/
import Derived.Test.YtbaijmkghgnleaaGreatDoorM24
import Derived.Test.YtbaijmkghgnleaaGreatDoorM24
import Derived.Test.YtbaijmkghgnleaaGreatDoorM01
import Derived.Test.YtbaijmkghgnleaaGreatDoorM14
import Derived.Test.YtbaijmkghgnleaaGreatDoorM23
namespace Go.Proofs.YtbaijmkghgnleaaGreatDoor
open Go.RowKit
set_option linter.unusedVariables false

/-- The bytes of frames, one behind the other. -/
def bytesF (l : List (Int × Int × Int × List Int)) : List Int := l.flatMap fun d => putF d.1 d.2.1 d.2.2.1 d.2.2.2

theorem bytesF_append (l m : List (Int × Int × Int × List Int)) : bytesF (l ++ m) = bytesF l ++ bytesF m := by simp [bytesF]
theorem bytesF_cons (d : Int × Int × Int × List Int) (l : List (Int × Int × Int × List Int)) : bytesF (d :: l) = putF d.1 d.2.1 d.2.2.1 d.2.2.2 ++ bytesF l := rfl

/-- The frames up to the next one. -/
theorem bytesF_take (l : List (Int × Int × Int × List Int)) (j : Nat) (d : Int × Int × Int × List Int) (h : l[j]? = some d) : bytesF (l.take (j + 1)) = bytesF (l.take j) ++ putF d.1 d.2.1 d.2.2.1 d.2.2.2 := by
  rw [List.take_add_one, h, bytesF_append]
  simp [bytesF]

theorem bytesF_take_le (l : List (Int × Int × Int × List Int)) (j : Nat) : (bytesF (l.take j)).length ≤ (bytesF l).length := by
  conv => rhs; rw [← List.take_append_drop j l, bytesF_append, List.length_append]
  omega

/-- The slice (a, n) holds these frames, each body wherever it lies. -/
structure FrIn (W : World) (a : Option Addr) (n : Nat) (l : List FE) : Prop where
  len : l.length = n
  row : n = 0 ∨ ∃ b off, a = some ⟨b, off, none⟩ ∧ b < W.heap.size ∧ ∀ i (hi : i < l.length), W.cell? ⟨b, off + i * 4, none⟩ = some (.int .i64 (l[i]).k) ∧ W.cell? ⟨b, off + i * 4 + 1, none⟩ = some (.int .i64 (l[i]).f) ∧ W.cell? ⟨b, off + i * 4 + 2, none⟩ = some (.int .i64 (l[i]).s) ∧ W.cell? ⟨b, off + i * 4 + 3, none⟩ = some (.slice (l[i]).a (l[i]).n (l[i]).c)
  body : ∀ e ∈ l, Seg W e.a e.n e.zs

theorem FrIn.below {W W' : World} {a : Option Addr} {n : Nat} {l : List FE} (h : FrIn W a n l) (hb : Below W.heap.size W W') : FrIn W' a n l := by
  refine ⟨h.len, ?_, fun e he => (h.body e he).below hb⟩
  rcases h.row with h0 | ⟨b, off, ha, hlt, hc⟩
  · exact .inl h0
  · refine .inr ⟨b, off, ha, Nat.lt_of_lt_of_le hlt hb.size, fun i hi => ?_⟩
    have key : ∀ j v, W.cell? ⟨b, j, none⟩ = some v → W'.cell? ⟨b, j, none⟩ = some v := fun j v hv => (hb.cell (p := ⟨b, j, none⟩) hlt).trans hv
    obtain ⟨h1, h2, h3, h4⟩ := hc i hi
    exact ⟨key _ _ h1, key _ _ h2, key _ _ h3, key _ _ h4⟩

theorem FrIn.at {W : World} {a : Option Addr} {n : Nat} {l : List FE} (h : FrIn W a n l) {k : Nat} (hk : k < n) : ∃ b off e, a = some ⟨b, off, none⟩ ∧ b < W.heap.size ∧ l[k]? = some e ∧ W.cell? ⟨b, off + k * 4, none⟩ = some (.int .i64 e.k) ∧ W.cell? ⟨b, off + k * 4 + 1, none⟩ = some (.int .i64 e.f) ∧ W.cell? ⟨b, off + k * 4 + 2, none⟩ = some (.int .i64 e.s) ∧ W.cell? ⟨b, off + k * 4 + 3, none⟩ = some (.slice e.a e.n e.c) ∧ Seg W e.a e.n e.zs := by
  rcases h.row with h0 | ⟨b, off, ha, hlt, hc⟩
  · omega
  · have hk' : k < l.length := by rw [h.len]; exact hk
    obtain ⟨h1, h2, h3, h4⟩ := hc k hk'
    exact ⟨b, off, l[k], ha, hlt, List.getElem?_eq_getElem hk', h1, h2, h3, h4, h.body _ (List.getElem_mem hk')⟩

end Go.Proofs.YtbaijmkghgnleaaGreatDoor

namespace Go.Proofs.YtbaijmkghgnleaaGreatDoor
open Go.RowKit

/-- How many frames of m bytes. -/
def pd (m L : Nat) : Nat := if L = 0 then 0 else pn m L

theorem pd_lt {m L j : Nat} (hm : 1 ≤ m) : j < pd m L ↔ j * m < L := by
  unfold pd
  split
  · omega
  · rw [pn_lt hm]
    constructor
    · rintro (rfl | h)
      · omega
      · exact h
    · exact fun h => .inr h

theorem pd_le (m L : Nat) (hm : 1 ≤ m) : pd m L ≤ L := by
  by_cases h : pd m L ≤ L
  · exact h
  · have h1 := (pd_lt (m := m) (L := L) (j := L) hm).1 (by omega)
    have h2 : L * 1 ≤ L * m := Nat.mul_le_mul_left L hm
    omega

/-- What the frames say. -/
def dataL (s : Int) (zs : List Int) (m : Nat) : List (Int × Int × Int × List Int) := (List.range (pd m zs.length)).map fun i => (0, if i + 1 = pd m zs.length then 1 else 0, s, (zs.drop (i * m)).take m)

end Go.Proofs.YtbaijmkghgnleaaGreatDoor

namespace Go.Proofs.YtbaijmkghgnleaaGreatDoor
open Go.RowKit
set_option linter.unusedVariables false

theorem info_frame : (Tryz.prog.info? 55).map (fun i => (i.zero, i.size, i.bytes)) = some (some (.agg #[.int .i64 0, .int .i64 0, .int .i64 0, .slice none 0 0]), 4, 48) := by kernel_rfl

theorem four_new (W : World) (k f s : Int) (a : Option Addr) (n c : Nat) (zs : List Int) : ∀ j u, (FE.cells ⟨k, f, s, a, n, c, zs⟩)[j]? = some u → (W.alloc (.cells #[.int .i64 k, .int .i64 f, .int .i64 s, .slice a n c] 55)).cell? ((⟨W.heap.size, 0, none⟩ : Addr).add j) = some u := by
  intro j u hj
  match j, hj with
  | 0, hj => simp [FE.cells] at hj; subst hj; simp [Addr.add]
  | 1, hj => simp [FE.cells] at hj; subst hj; simp [Addr.add]
  | 2, hj => simp [FE.cells] at hj; subst hj; simp [Addr.add]
  | 3, hj => simp [FE.cells] at hj; subst hj; simp [Addr.add]

theorem four_one (k f s : Int) (a : Option Addr) (n c : Nat) (zs : List Int) : ∀ u ∈ FE.cells ⟨k, f, s, a, n, c, zs⟩, u.oneCell' = true := by
  intro u hu
  simp [FE.cells] at hu
  rcases hu with rfl | rfl | rfl | rfl <;> rfl

/-- A frame more in a row. -/
theorem FrRow.snoc {W W' : World} {base B : Nat} {v v' : Value} {l : List FE} {e : FE} {o : Obj} (h : FrRow W base v l) (he : Owns W B e.a e.n e.c e.zs) (hB : base ≤ B) (hl : ∀ x ∈ l, ∀ q, x.a.map (·.block) = some q → q < B) (ho : W'.ownsRow base 55 4 v' (l.length + 1) (feCells l ++ FE.cells e)) (hg : (W.alloc o).grownBy W' v.ownBlock) : FrRow W' base v' (l ++ [e]) := by
  have hb : Below W.heap.size W (W.alloc o) := (Below.refl _ _).alloc (Nat.le_refl _) _
  have h1 := h.stays hb
  refine ⟨?_, ?_, ?_⟩
  · rw [List.length_append, feCells_append, show feCells [e] = FE.cells e by simp [feCells]]
    exact ho
  · intro x hx
    rcases List.mem_append.1 hx with hx | hx
    · exact (h1.2.1 x hx).grown hg (fun q hq => h1.rowApart (h1.2.1 x hx) q hq)
    · obtain rfl : x = e := by simpa using hx
      exact ((he.below hb).grown hg (fun q hq => h1.rowApart (he.below hb) q hq)).low hB
  · rw [List.pairwise_append]
    refine ⟨h.2.2, by simp, fun x hx y hy q hq hq2 => ?_⟩
    obtain rfl : y = e := by simpa using hy
    have h2 := hl x hx q hq
    have h3 := (he.lt q hq2).1
    omega

end Go.Proofs.YtbaijmkghgnleaaGreatDoor

namespace Go.Proofs.YtbaijmkghgnleaaGreatDoor
open Go.RowKit
set_option linter.unusedVariables false

theorem FrIn.none_nil {W : World} {a : Option Addr} {n : Nat} {l : List FE} (h : FrIn W a n l) (ha : a = none) : n = 0 := by
  rcases h.row with h0 | ⟨b, off, he, _⟩
  · exact h0
  · rw [ha] at he; cases he

theorem FrIn.cells {W : World} {a : Option Addr} {n : Nat} {l : List FE} (h : FrIn W a n l) : ∀ ad, a = some ad → ∀ j u, (feCells l)[j]? = some u → W.cell? (ad.add j) = some u := by
  intro ad ha j u hj
  have hl2 : j < l.length * 4 := by
    by_cases h : j < l.length * 4
    · exact h
    · rw [List.getElem?_eq_none (by rw [feCells_len]; omega)] at hj; cases hj
  rcases h.row with h0 | ⟨b, off, he, hlt, hc⟩
  · have := h.len; omega
  · rw [ha] at he
    injection he with he
    subst he
    obtain ⟨i, e⟩ : ∃ i, j = i * 4 ∨ j = i * 4 + 1 ∨ j = i * 4 + 2 ∨ j = i * 4 + 3 := ⟨j / 4, by omega⟩
    have hk : i < l.length := by omega
    obtain ⟨c0, c1, c2, c3⟩ := hc i hk
    obtain ⟨e0, e1, e2, e3⟩ := feCells_at l i hk
    rcases e with rfl | rfl | rfl | rfl
    · rw [e0] at hj
      rw [← hj, ← c0]
      by_cases hi0 : i = 0
      · subst hi0; simp [Addr.add]
      · simp [Addr.add, show ¬ i * 4 = 0 by omega]
    · rw [e1] at hj; rw [← hj, ← c1]; simp [Addr.add, Nat.add_assoc]
    · rw [e2] at hj; rw [← hj, ← c2]; simp [Addr.add, Nat.add_assoc]
    · rw [e3] at hj; rw [← hj, ← c3]; simp [Addr.add, Nat.add_assoc]

/-- A row that a call has made, its bodies wherever they lie. -/
theorem FrIn.ofRow {W : World} {base n c : Nat} {a : Option Addr} {l : List FE} (h : W.ownsRow base 55 4 (.slice a n c) n (feCells l)) (hb : ∀ e ∈ l, Seg W e.a e.n e.zs) : FrIn W a n l := by
  have hl : l.length = n := by have := h.1; rw [feCells_len] at this; omega
  refine ⟨hl, ?_, hb⟩
  rcases h.2 with ⟨_, hn⟩ | ⟨g, cap', cur, he, hgb, hg, hn, hm, hc, ht⟩
  · exact .inl hn
  · injection he with e1 e2 e3
    subst e1
    refine .inr ⟨g, 0, rfl, (Array.getElem?_eq_some_iff.1 hg).1, fun i hi => ?_⟩
    have hget : ∀ j, j < n * 4 → W.cell? ⟨g, j, none⟩ = (feCells l)[j]? := by
      intro j hj
      rw [cell_of_row W g j cur _ (0, 0) hg, ← ht, List.getElem?_take, if_pos hj, Array.getElem?_toList]
    have := feCells_at l i hi
    rw [Nat.zero_add, hget (i * 4) (by omega), hget (i * 4 + 1) (by omega), hget (i * 4 + 2) (by omega), hget (i * 4 + 3) (by omega)]
    exact this

theorem row_someF {w : World} {base n : Nat} {e : TypeId} {s : Nat} {v : Value} {xs : List Value} (h : w.ownsRow base e s v n xs) (hn : 0 < n) : ∃ g cap, v = .slice (some ⟨g, 0, none⟩) n cap ∧ base ≤ g ∧ g < w.heap.size := by
  rcases h.2 with ⟨_, h0⟩ | ⟨g, cap, cur, rfl, hb, hg, _⟩
  · omega
  · exact ⟨g, cap, rfl, hb, (Array.getElem?_eq_some_iff.1 hg).1⟩

set_option maxRecDepth 10000 in
set_option maxHeartbeats 800000 in
theorem growFr_any (n : Nat) (w : World) (h0 : 0 < n) (hn : n ≤ 2097300) :
    Calls Tryz.prog 58 #[.slice none 0 0, .int .i64 n] w fun e w' => ∃ g cap, e = .returned (.slice (some ⟨g, 0, none⟩) 0 cap) ∧ w'.ownsRow w.heap.size 55 4 (.slice (some ⟨g, 0, none⟩) 0 cap) 0 [] ∧ Below w.heap.size w w' := by
  obtain ⟨i0, hi, hz0, hz1, hz2⟩ := info_parts info_frame
  have HA : Hid (0 < i0.size ∧ n ≤ maxLen ∧ n * i0.bytes ≤ 281474976710656) := ⟨by rw [hz1]; omega, by unfold maxLen; omega, by rw [hz2]; omega⟩
  have hpos : (0 : Int) < (n : Int) := by omega
  have hbig : (n : Int) ≤ 2097300 := by omega
  go_enter Tryz.func58, Tryz.ntmps58
  go_wp2_with (first | (refine wpList_append_made _ rfl _ _ 52 3 rfl 55 i0 (.agg #[.int .i64 0, .int .i64 0, .int .i64 0, .slice none 0 0]) Tryz.underlying52 Tryz.underlying3 hi hz0 (by rw [hz1]; rfl) n rfl rfl h0 HA.out.1 HA.out.2.1 HA.out.2.2 ?_; intro cap cur hc1 hc2 hc3; have hci : (0 : Int) ≤ (cap : Int) := by omega) | fail)
  go_ret
  refine ⟨_, cap, rfl, ?_, (Below.refl _ _).drew.alloc (Nat.le_refl _) _⟩
  rw [hz1] at hc3
  exact World.ownsRow_made w.drew cur cap (Nat.le_refl _) hc2 hc3

set_option maxRecDepth 10000 in
set_option maxHeartbeats 1600000 in
theorem concatFr_any (g c : Nat) (a1 a2 : Option Addr) (n1 n2 c1 c2 : Nat) (xs ys : List FE) (w : World) (hg : w.heap[g]? = some (.cells #[.slice a1 n1 c1, .slice a2 n2 c2] 52 (0, 0))) (h1 : FrIn w a1 n1 xs) (h2 : FrIn w a2 n2 ys) (h0 : 0 < n1) (hl1 : n1 ≤ 1048576) (hl2 : n2 ≤ 1048576) :
    Calls Tryz.prog 34 #[.slice (some ⟨g, 0, none⟩) 2 2] w fun e w' => ∃ g' cap, e = .returned (.slice (some ⟨g', 0, none⟩) (n1 + n2) cap) ∧ FrIn w' (some ⟨g', 0, none⟩) (n1 + n2) (xs ++ ys) ∧ Below w.heap.size w w' := by
  obtain ⟨i0, hi, hz0, hz1, hz2⟩ := info_parts info_frame
  have hgl := (Array.getElem?_eq_some_iff.1 hg).1
  have k0 : w.cell? ⟨g, 0, none⟩ = some (.slice a1 n1 c1) := by rw [cell_of_row _ _ _ _ _ _ hg]; rfl
  have k1 : w.cell? ⟨g, 1, none⟩ = some (.slice a2 n2 c2) := by rw [cell_of_row _ _ _ _ _ _ hg]; rfl
  have HK : Hid (∀ W, Below w.heap.size w W → W.cell? ⟨g, 0, none⟩ = some (.slice a1 n1 c1) ∧ W.cell? ⟨g, 1, none⟩ = some (.slice a2 n2 c2) ∧ FrIn W a1 n1 xs ∧ FrIn W a2 n2 ys) := fun W hW =>
    ⟨(hW.cell (p := ⟨_, _, none⟩) hgl).trans k0, (hW.cell (p := ⟨_, _, none⟩) hgl).trans k1, h1.below hW, h2.below hW⟩
  have HX : Hid (xs.length = n1 ∧ ys.length = n2 ∧ (a1 = none → n1 = 0) ∧ (a2 = none → n2 = 0)) := ⟨h1.len, h2.len, fun h => h1.none_nil h, fun h => h2.none_nil h⟩
  have HA : Hid (0 + n1 ≤ maxLen ∧ (0 + n1) * 48 ≤ 140737488355328 ∧ (feCells xs).length = n1 * 4 ∧ n1 + n2 ≤ maxLen ∧ (n1 + n2) * 48 ≤ 140737488355328 ∧ (feCells ys).length = n2 * 4) := by
    have e1 := h1.len
    have e2 := h2.len
    refine ⟨by unfold maxLen; omega, by omega, by rw [feCells_len]; omega, by unfold maxLen; omega, by omega, by rw [feCells_len]; omega⟩
  clear h1 h2 hg hgl
  go_enter Tryz.func34, Tryz.ntmps34
  go_wp2_with fail
  go_loopw [3, 11] (fun v i wr => w = wr ∧ ((i = .int .i64 0 ∧ v = .int .i64 0) ∨ (i = .int .i64 1 ∧ v = .int .i64 n1) ∨ (i = .int .i64 2 ∧ v = .int .i64 (n1 + n2 : Nat)))) (fun _ i _ => 2 - (intOf i).toNat)
  case atStart => exact ⟨rfl, .inl ⟨rfl, rfl⟩⟩
  case round =>
    obtain ⟨rfl, ⟨rfl, rfl⟩ | ⟨rfl, rfl⟩ | ⟨rfl, rfl⟩⟩ := hrel
    · go_wp2
      go_roundw
      case rel => exact ⟨by first | rfl | trivial, .inr (.inl ⟨rfl, rfl⟩)⟩
      case measure => simp [intOf]
    · have hp : (0 : Int) ≤ (n1 : Int) + (n2 : Int) := by omega
      go_wp2
      go_roundw
      case rel => exact ⟨by first | rfl | trivial, .inr (.inr ⟨rfl, by go_num⟩)⟩
      case measure => simp [intOf]
    · clear k0 k1
      go_wp2_with fail
      refine (growFr_any (n1 + n2) _ (by omega) (by omega)).mono ?_
      rintro e w1 ⟨g1, cap1, rfl, hown1, hb1⟩
      have HO1 : Hid (w1.ownsRow w.heap.size 55 4 (.slice (some ⟨g1, 0, none⟩) 0 cap1) 0 ([])) := hown1
      have HB1 : Hid (Below w.heap.size w w1) := hb1
      clear hown1 hb1
      go_wp2_with fail
      go_loopw [6, 27] (fun v i wr => Hid (Below w.heap.size w wr) ∧ ((i = .int .i64 0 ∧ ∃ g cap, v = .slice (some ⟨g, 0, none⟩) 0 cap ∧ Hid (wr.ownsRow w.heap.size 55 4 (.slice (some ⟨g, 0, none⟩) 0 cap) 0 ([]))) ∨ (i = .int .i64 1 ∧ ∃ g cap, v = .slice (some ⟨g, 0, none⟩) n1 cap ∧ Hid (wr.ownsRow w.heap.size 55 4 (.slice (some ⟨g, 0, none⟩) n1 cap) n1 (feCells xs))) ∨ (i = .int .i64 2 ∧ ∃ g cap, v = .slice (some ⟨g, 0, none⟩) (n1 + n2) cap ∧ Hid (wr.ownsRow w.heap.size 55 4 (.slice (some ⟨g, 0, none⟩) (n1 + n2) cap) (n1 + n2) (feCells (xs ++ ys)))))) (fun _ i _ => 2 - (intOf i).toNat)
      case atStart => exact ⟨HB1, .inl ⟨rfl, g1, cap1, rfl, HO1⟩⟩
      case round =>
        clear HO1 HB1
        obtain ⟨HB, ⟨rfl, g2, cap2, rfl, HO⟩ | ⟨rfl, g2, cap2, rfl, HO⟩ | ⟨rfl, g2, cap2, rfl, HO⟩⟩ := hrel
        · have k0 := (HK.out _ HB.out).1
          go_wp2_with (first | (refine wpList_plain rfl fun K hK => ?_; refine wp_append_src (.tmp 31) (.tmp 32) 52 rfl w.heap.size 55 i0 (.agg #[.int .i64 0, .int .i64 0, .int .i64 0, .slice none 0 0]) 4 48 Tryz.underlying52 hi hz0 hz1 hz2 rfl (by decide) g2 0 cap2 [] rfl HO.out a1 n1 c1 (feCells xs) rfl HX.out.2.2.1 HA.out.2.2.1 (HK.out _ HB.out).2.2.1.cells (feCells_one xs) HA.out.1 HA.out.2.1 HB.out.size ?_; intro v4 w4 hown hgrow; obtain ⟨g4, cap4, rfl, hg4, hg4'⟩ := row_someF hown (by omega); refine hK _ _ ?_) | fail)
          have hlo : w.heap.size ≤ g2 := (World.ownsRow.lt HO.out _ rfl).1
          have HB4 : Hid (Below w.heap.size w w4) := HB.out.grown hgrow HB.out.size (fun k hk => by injection hk with hk; omega)
          have HO4 : Hid (w4.ownsRow w.heap.size 55 4 (.slice (some ⟨g4, 0, none⟩) n1 cap4) n1 (feCells xs)) := by
            have := hown
            rw [Nat.zero_add, List.nil_append] at this
            exact this
          clear hown hgrow
          go_roundw
          case rel => exact ⟨HB4, .inr (.inl ⟨rfl, g4, cap4, rfl, HO4⟩)⟩
          case measure => simp [intOf]
        · have k1 := (HK.out _ HB.out).2.1
          go_wp2_with (first | (refine wpList_plain rfl fun K hK => ?_; refine wp_append_src (.tmp 31) (.tmp 32) 52 rfl w.heap.size 55 i0 (.agg #[.int .i64 0, .int .i64 0, .int .i64 0, .slice none 0 0]) 4 48 Tryz.underlying52 hi hz0 hz1 hz2 rfl (by decide) g2 n1 cap2 (feCells xs) rfl HO.out a2 n2 c2 (feCells ys) rfl HX.out.2.2.2 HA.out.2.2.2.2.2 (HK.out _ HB.out).2.2.2.cells (feCells_one ys) HA.out.2.2.2.1 HA.out.2.2.2.2.1 HB.out.size ?_; intro v4 w4 hown hgrow; obtain ⟨g4, cap4, rfl, hg4, hg4'⟩ := row_someF hown (by omega); refine hK _ _ ?_) | fail)
          have hlo : w.heap.size ≤ g2 := (World.ownsRow.lt HO.out _ rfl).1
          have HB4 : Hid (Below w.heap.size w w4) := HB.out.grown hgrow HB.out.size (fun k hk => by injection hk with hk; omega)
          have HO4 : Hid (w4.ownsRow w.heap.size 55 4 (.slice (some ⟨g4, 0, none⟩) (n1 + n2) cap4) (n1 + n2) (feCells (xs ++ ys))) := by
            show World.ownsRow _ _ _ _ _ _ _
            rw [feCells_append]
            exact hown
          clear hown hgrow
          go_roundw
          case rel => exact ⟨HB4, .inr (.inr ⟨rfl, g4, cap4, rfl, HO4⟩)⟩
          case measure => simp [intOf]
        · go_wp2
          go_ret
          have hk := HK.out _ HB.out
          exact ⟨g2, cap2, rfl, FrIn.ofRow HO.out (fun e he => by
            rcases List.mem_append.1 he with h | h
            · exact hk.2.2.1.body e h
            · exact hk.2.2.2.body e h), HB.out⟩

end Go.Proofs.YtbaijmkghgnleaaGreatDoor

namespace Go.Proofs.YtbaijmkghgnleaaGreatDoor
open Go.RowKit
set_option linter.unusedVariables false

theorem bytesF_len (l : List (Int × Int × Int × List Int)) : (bytesF l).length ≤ 1009 * l.length := by
  induction l with
  | nil => simp [bytesF]
  | cons d r ih =>
    rw [bytesF_cons, List.length_append, List.length_cons]
    have := putF_len d.1 d.2.1 d.2.2.1 d.2.2.2
    omega

theorem pfx_pos (B F n : Nat) : 0 < (pfx B F n).length := by
  unfold pfx
  split <;> simp

theorem FormOf.pos {mode : Int} {b : Bool} {i : Nat} {x y : ByteArray} {q : List Int} (h : FormOf mode b i x y q) : 0 < q.length := by
  rcases h with ⟨_, _, rfl⟩ | ⟨_, p, v, _, _, rfl⟩
  · exact pfx_pos _ _ _
  · have := pfx_pos (modeB mode) (modeF mode) i
    simp only [List.length_append]
    omega

theorem fmode_range (x : ByteArray) : 1 ≤ fmode x ∧ fmode x ≤ 3 := by
  unfold fmode
  split <;> omega

/-- A field that is put comes to bytes. -/
theorem PutN.pos {L : List Fld} {m : Int} {xs : List Fld} (hok : okT m xs = true) : ∀ {n : Nat} {q : List Int} {ys : List Fld}, 0 < n → PutN L m xs n q ys → 0 < q.length := by
  intro n
  induction n with
  | zero => intro q ys h0; omega
  | succ n ih =>
    rintro q ys - ⟨q1, y1, x, y, r, h1, hx, h2, rfl⟩
    rw [List.length_append]
    cases n with
    | zero =>
      obtain ⟨rfl, rfl⟩ := h1
      rcases h2 with ⟨_, i, b, _, hf, _⟩ | ⟨hno, _, _⟩
      · have := hf.pos
        omega
      · exact absurd ⟨hok, fmode_range x⟩ hno
    | succ n =>
      have := ih (by omega) h1
      omega

theorem fieldsR_pos {op n : Int} {s : ByteArray} (h : reqB op s.data.toList n = true) : 0 < (fieldsR op s n).length := by
  rw [fieldsR, if_pos h, List.length_append]
  have : (threeF op s).length = 3 := rfl
  omega

theorem partL_pos {s : Int} (h : 1 ≤ s ∧ s ≤ 2147483647) (en : Bool) (zs : List Int) (most : Int) : 0 < (partL s en zs most).length := by
  rw [partL, if_pos h, List.length_map, List.length_range]
  exact pn_pos _ _

/-- A row of frames as it is read. -/
theorem FrRow.frIn {W : World} {base n c : Nat} {a : Option Addr} {l : List FE} (h : FrRow W base (.slice a n c) l) (hn : n = l.length) : FrIn W a n l := by
  subst hn
  exact FrIn.ofRow h.1 (fun e he => (h.2.1 e he).seg)

/-- The frames: the block's, and those of the body. -/
def askF (s : Int) (zs q : List Int) (most : Int) : List (Int × Int × Int × List Int) := partL s (decide (zs.length = 0)) q most ++ dataL s zs (clampM most)

theorem dataL_len (s : Int) (zs : List Int) (m : Nat) : (dataL s zs m).length = pd m zs.length := by simp [dataL]

theorem askF_len (s : Int) (zs q : List Int) (most : Int) : (askF s zs q most).length ≤ q.length + 1 + zs.length := by
  rw [askF, List.length_append, dataL_len]
  have h1 := partL_len s (decide (zs.length = 0)) q most
  have h2 := pd_le (clampM most) zs.length (clampM_range most).1
  omega

theorem askF_bytes (s : Int) (zs q : List Int) (most : Int) (hz : zs.length ≤ 1048576) (hq : q.length ≤ 1048576) : (bytesF (askF s zs q most)).length ≤ 1099511627776 := by
  have h1 := bytesF_len (askF s zs q most)
  have h2 := askF_len s zs q most
  omega

/-- The bytes and the table's fields. -/
def AskN (m : Int) (xs : List Fld) (s op : Int) (x : ByteArray) (n : Int) (zs : List Int) (most : Int) (bs : List Int) (ys : List Fld) : Prop :=
  ((okT m xs = true ∧ reqB op x.data.toList n = true ∧ 1 ≤ s ∧ s ≤ 2147483647) ∧ ∃ q, PutN (fieldsR op x n) m xs (fieldsR op x n).length q ys ∧ bs = bytesF (askF s zs q most)) ∨
  (¬ (okT m xs = true ∧ reqB op x.data.toList n = true ∧ 1 ≤ s ∧ s ≤ 2147483647) ∧ bs = [] ∧ ys = xs)

theorem AskN.one {m : Int} {xs : List Fld} {s op : Int} {x : ByteArray} {n : Int} {zs : List Int} {most : Int} {b1 b2 : List Int} {y1 y2 : List Fld} (h : AskN m xs s op x n zs most b1 y1) (g : AskN m xs s op x n zs most b2 y2) : b1 = b2 ∧ y1 = y2 := by
  rcases h with ⟨h0, q, h1, rfl⟩ | ⟨h0, rfl, rfl⟩ <;> rcases g with ⟨g0, r, g1, rfl⟩ | ⟨g0, rfl, rfl⟩
  · obtain ⟨rfl, rfl⟩ := h1.one g1
    exact ⟨rfl, rfl⟩
  · exact absurd h0 g0
  · exact absurd g0 h0
  · exact ⟨rfl, rfl⟩

/-- The answer. -/
def AskAns (m : Int) (xs : List Fld) (s op : Int) (x : ByteArray) (n : Int) (zs : List Int) (most : Int) (base : Nat) (e : Ending) (w' : World) : Prop :=
  ∃ bs ys a' k c' v j, e = .returned (.tuple #[.slice a' k c', .agg #[.int .i64 m, v]]) ∧ AskN m xs s op x n zs most bs ys ∧ Owns w' base a' k c' bs ∧ OwnF w' base v j ys

end Go.Proofs.YtbaijmkghgnleaaGreatDoor

namespace Go.Proofs.YtbaijmkghgnleaaGreatDoor
open Go.RowKit
set_option linter.unusedVariables false

/-- A variable of three cells. -/
def Box3 (W : World) (b : Nat) (t : TypeId) (x y z : Value) : Prop := W.heap[b]? = some (.cells #[x, y, z] t (0, 0))

theorem Box3.lt {W : World} {b : Nat} {t : TypeId} {x y z : Value} (h : Box3 W b t x y z) : b < W.heap.size := (Array.getElem?_eq_some_iff.1 h).1

theorem Box3.stays {W W' : World} {b : Nat} {t : TypeId} {x y z : Value} (h : Box3 W b t x y z) (hb : Below W.heap.size W W') : Box3 W' b t x y z := (hb.block b h.lt).trans h

theorem Box3.alloc {W : World} {b : Nat} {t : TypeId} {x y z : Value} (h : Box3 W b t x y z) (o : Obj) : Box3 (W.alloc o) b t x y z := by
  have hl := h.lt
  show (W.heap.push o)[b]? = _
  rw [Array.getElem?_push, if_neg (by omega)]
  exact h

theorem Box3.new (W : World) (t : TypeId) (x y z : Value) : Box3 (W.alloc (.cells #[x, y, z] t)) W.heap.size t x y z := heap_alloc_new W _

theorem Box3.cells {W : World} {b : Nat} {t : TypeId} {x y z : Value} (h : Box3 W b t x y z) : W.cell? ⟨b, 0, none⟩ = some x ∧ W.cell? ⟨b, 1, none⟩ = some y ∧ W.cell? ⟨b, 2, none⟩ = some z := by
  refine ⟨?_, ?_, ?_⟩ <;> (rw [cell_of_row _ _ _ _ _ _ h]; rfl)

theorem Box3.frozen {W : World} {b : Nat} {t : TypeId} {x y z : Value} (h : Box3 W b t x y z) (i : Nat) : W.frozen? ⟨b, i, none⟩ = false := by simp [World.frozen?, show W.heap[b]? = _ from h]

theorem Box3.grown {W W' : World} {b : Nat} {t : TypeId} {x y z : Value} {r : Option Nat} (h : Box3 W b t x y z) (hg : W.grownBy W' r) (hr : r ≠ some b) : Box3 W' b t x y z := (hg.block b h.lt (Ne.symm hr)).trans h

end Go.Proofs.YtbaijmkghgnleaaGreatDoor

namespace Go.Proofs.YtbaijmkghgnleaaGreatDoor
open Go.RowKit
set_option linter.unusedVariables false

theorem box4_set0 {W : World} {b : Nat} {t : TypeId} {x y z u : Value} (h : Box4 W b t x y z u) (v : Value) : Box4 (W.setCell ⟨b, 0, none⟩ v) b t v y z u := by
  show (W.setCell ⟨b, 0, none⟩ v).heap[b]? = _
  rw [setCell_eq_setRow W b 0 _ t (0, 0) _ h, setRow_heap W b _ _ t (0, 0) h]
  rfl

theorem box4_set1 {W : World} {b : Nat} {t : TypeId} {x y z u : Value} (h : Box4 W b t x y z u) (v : Value) : Box4 (W.setCell ⟨b, 1, none⟩ v) b t x v z u := by
  show (W.setCell ⟨b, 1, none⟩ v).heap[b]? = _
  rw [setCell_eq_setRow W b 1 _ t (0, 0) _ h, setRow_heap W b _ _ t (0, 0) h]
  rfl

theorem box4_set2 {W : World} {b : Nat} {t : TypeId} {x y z u : Value} (h : Box4 W b t x y z u) (v : Value) : Box4 (W.setCell ⟨b, 2, none⟩ v) b t x y v u := by
  show (W.setCell ⟨b, 2, none⟩ v).heap[b]? = _
  rw [setCell_eq_setRow W b 2 _ t (0, 0) _ h, setRow_heap W b _ _ t (0, 0) h]
  rfl

theorem box4_set3 {W : World} {b : Nat} {t : TypeId} {x y z u : Value} (h : Box4 W b t x y z u) (v : Value) : Box4 (W.setCell ⟨b, 3, none⟩ v) b t x y z v := by
  show (W.setCell ⟨b, 3, none⟩ v).heap[b]? = _
  rw [setCell_eq_setRow W b 3 _ t (0, 0) _ h, setRow_heap W b _ _ t (0, 0) h]
  rfl

theorem box3_set0 {W : World} {b : Nat} {t : TypeId} {x y z : Value} (h : Box3 W b t x y z) (v : Value) : Box3 (W.setCell ⟨b, 0, none⟩ v) b t v y z := by
  show (W.setCell ⟨b, 0, none⟩ v).heap[b]? = _
  rw [setCell_eq_setRow W b 0 _ t (0, 0) _ h, setRow_heap W b _ _ t (0, 0) h]
  rfl

theorem box3_set1 {W : World} {b : Nat} {t : TypeId} {x y z : Value} (h : Box3 W b t x y z) (v : Value) : Box3 (W.setCell ⟨b, 1, none⟩ v) b t x v z := by
  show (W.setCell ⟨b, 1, none⟩ v).heap[b]? = _
  rw [setCell_eq_setRow W b 1 _ t (0, 0) _ h, setRow_heap W b _ _ t (0, 0) h]
  rfl

theorem box3_set2 {W : World} {b : Nat} {t : TypeId} {x y z : Value} (h : Box3 W b t x y z) (v : Value) : Box3 (W.setCell ⟨b, 2, none⟩ v) b t x y v := by
  show (W.setCell ⟨b, 2, none⟩ v).heap[b]? = _
  rw [setCell_eq_setRow W b 2 _ t (0, 0) _ h, setRow_heap W b _ _ t (0, 0) h]
  rfl

theorem set_block_ne (w : World) (b b' k : Nat) (v : Value) (h : b ≠ b') : (w.setCell ⟨b', k, none⟩ v).heap[b]? = w.heap[b]? := by
  simp [World.setCell, Array.getElem?_modify, Ne.symm h]

theorem grownBy_set (W : World) (b k : Nat) (v : Value) : W.grownBy (W.setCell ⟨b, k, none⟩ v) (some b) :=
  ⟨rfl, rfl, rfl, by simp, fun i _ hne => set_block_ne W i b k v (fun e => hne (by rw [e]))⟩

/-- A variable of another block is as it was. -/
theorem box4_other {W : World} {b b' k : Nat} {t : TypeId} {x y z u v : Value} (h : Box4 W b t x y z u) (hne : b ≠ b') : Box4 (W.setCell ⟨b', k, none⟩ v) b t x y z u := (set_block_ne W b b' k v hne).trans h

theorem box3_other {W : World} {b b' k : Nat} {t : TypeId} {x y z v : Value} (h : Box3 W b t x y z) (hne : b ≠ b') : Box3 (W.setCell ⟨b', k, none⟩ v) b t x y z := (set_block_ne W b b' k v hne).trans h

/-- A row of the call's own is as it was where another block is written. -/
theorem owns_set {W : World} {base n cap b' k : Nat} {a : Option Addr} {zs : List Int} {v : Value} (h : Owns W base a n cap zs) (hne : a.map (·.block) ≠ some b') : Owns (W.setCell ⟨b', k, none⟩ v) base a n cap zs := by
  refine ⟨⟨h.1.1, ?_⟩, h.2⟩
  rcases h.1.2 with h0 | ⟨g, cap', cur, he, hb, hg, r⟩
  · exact .inl h0
  · injection he with e1 e2 e3
    subst e1
    refine .inr ⟨g, cap', cur, by rw [e3], hb, ?_, r⟩
    rw [set_block_ne W g b' k v (fun e => hne (by rw [← e]; rfl))]
    exact hg

end Go.Proofs.YtbaijmkghgnleaaGreatDoor

namespace Go.Proofs.YtbaijmkghgnleaaGreatDoor
open Go.RowKit
set_option linter.unusedVariables false

/-- The block holds a variable of these cells. -/
def BoxN (W : World) (b : Nat) (t : TypeId) (vs : List Value) : Prop := W.heap[b]? = some (.cells vs.toArray t (0, 0))

section
variable {W W' : World} {b : Nat} {t : TypeId} {vs : List Value}

theorem BoxN.lt (h : BoxN W b t vs) : b < W.heap.size := (Array.getElem?_eq_some_iff.1 h).1
theorem BoxN.stays (h : BoxN W b t vs) (hb : Below W.heap.size W W') : BoxN W' b t vs := (hb.block b h.lt).trans h
theorem BoxN.alloc (h : BoxN W b t vs) (o : Obj) : BoxN (W.alloc o) b t vs := h.stays ((Below.refl _ _).alloc (Nat.le_refl _) _)
theorem BoxN.new (W : World) (t : TypeId) (vs : List Value) : BoxN (W.alloc (.cells vs.toArray t)) W.heap.size t vs := heap_alloc_new W _

theorem BoxN.cell (h : BoxN W b t vs) (i : Nat) {v : Value} (hv : vs[i]? = some v) : W.cell? ⟨b, i, none⟩ = some v := by
  have h' : W.heap[b]? = some (.cells vs.toArray t (0, 0)) := h
  rw [cell_of_row _ _ _ _ _ _ h', ← hv]
  simp

theorem BoxN.frozen (h : BoxN W b t vs) (i : Nat) : W.frozen? ⟨b, i, none⟩ = false := by simp [World.frozen?, show W.heap[b]? = _ from h]
theorem BoxN.grown {r : Option Nat} (h : BoxN W b t vs) (hg : W.grownBy W' r) (hr : r ≠ some b) : BoxN W' b t vs := (hg.block b h.lt (Ne.symm hr)).trans h

theorem BoxN.set (h : BoxN W b t vs) (i : Nat) (v : Value) : BoxN (W.setCell ⟨b, i, none⟩ v) b t (vs.set i v) := by
  show (W.setCell ⟨b, i, none⟩ v).heap[b]? = _
  rw [setCell_eq_setRow W b i _ t (0, 0) _ h, setRow_heap W b _ _ t (0, 0) h]
  simp

theorem BoxN.other {b' k : Nat} (h : BoxN W b t vs) (hne : b ≠ b') (v : Value) : BoxN (W.setCell ⟨b', k, none⟩ v) b t vs := (set_block_ne W b b' k v hne).trans h
end

end Go.Proofs.YtbaijmkghgnleaaGreatDoor

namespace Go.Proofs.YtbaijmkghgnleaaGreatDoor
open Go.RowKit
set_option linter.unusedVariables false

theorem putF_pos {k f s : Int} {zs : List Int} (h : okF k f s zs.length = true) : 0 < (putF k f s zs).length := by
  unfold putF
  rw [if_pos h, List.length_append]
  have := headB_len k.toNat f.toNat s.toNat zs.length
  omega

theorem okT_short {m : Int} {xs : List Fld} (h : okT m xs = true) : xs.length + fldBytes xs ≤ 4096 := by
  unfold okT at h
  have h3 := (decide_eq_true_iff.1 h).2.2
  have h2 := (decide_eq_true_iff.1 h).2.1
  unfold szL at h3
  omega

theorem pf_range (en : Bool) (j n : Nat) : 0 ≤ pf en j n ∧ pf en j n ≤ 255 := by
  unfold pf
  repeat split
  all_goals omega

theorem partL_bytes {s : Int} (h : 1 ≤ s ∧ s ≤ 2147483647) (en : Bool) (zs : List Int) (most : Int) : 0 < (bytesF (partL s en zs most)).length := by
  have hp := partL_pos h en zs most
  have hm := clampM_range most
  cases hl : partL s en zs most with
  | nil => rw [hl] at hp; simp at hp
  | cons d r =>
    rw [bytesF_cons, List.length_append]
    have hd : d ∈ partL s en zs most := by rw [hl]; simp
    rw [partL, if_pos h] at hd
    obtain ⟨j, _, rfl⟩ := List.mem_map.1 hd
    have h1 := pf_range en j (pn (clampM most) zs.length)
    have h2 : ((zs.drop (j * clampM most)).take (clampM most)).length ≤ 1000 := by rw [List.length_take]; omega
    have h3 : okF (prt (clampM most) s en zs j).1 (prt (clampM most) s en zs j).2.1 (prt (clampM most) s en zs j).2.2.1 (prt (clampM most) s en zs j).2.2.2.length = true := by
      refine decide_eq_true ⟨?_, ?_, ?_, ?_⟩
      · show 0 ≤ (if j = 0 then (1 : Int) else 9) ∧ (if j = 0 then (1 : Int) else 9) ≤ 255
        split <;> omega
      · exact h1
      · show 0 ≤ s ∧ s ≤ 2147483647
        omega
      · exact h2
    have := putF_pos h3
    omega

theorem dataL_at (s : Int) (zs : List Int) (m k : Nat) (h : k < pd m zs.length) : (dataL s zs m)[k]? = some (0, if k + 1 = pd m zs.length then 1 else 0, s, (zs.drop (k * m)).take m) := by
  rw [dataL, List.getElem?_map, List.getElem?_range h]
  rfl

/-- The row of a slice is no variable of another type. -/
theorem own_apart {W : World} {base sz n b : Nat} {e t : TypeId} {v : Value} {xs : List Value} {vs : List Value} (hne : e ≠ t) (o : W.ownsRow base e sz v n xs) (h : BoxN W b t vs) : ∀ q, v.ownBlock = some q → q ≠ b := by
  intro q hq he
  subst he
  rcases o.2 with ⟨rfl, _⟩ | ⟨g, cap, cur, rfl, _, hg, _⟩
  · cases hq
  · injection hq with hq
    subst hq
    have h1 : W.heap[g]? = some (.cells vs.toArray t (0, 0)) := h
    rw [h1] at hg
    injection hg with hg
    injection hg with _ h2 _
    exact hne h2.symm

theorem own_put {W : World} {base sz n b k : Nat} {e : TypeId} {v u : Value} {xs : List Value} (o : W.ownsRow base e sz v n xs) (h : ∀ q, v.ownBlock = some q → q ≠ b) : (W.setCell ⟨b, k, none⟩ u).ownsRow base e sz v n xs := by
  refine o.kept (row := some b) ⟨rfl, rfl, rfl, by simp [World.setCell], fun j _ hj => Below.heap_setCell _ _ _ _ (fun e => hj (by simp [e]))⟩ ?_
  rcases o.2 with ⟨rfl, _⟩ | ⟨g, cap, cur, rfl, _⟩
  · exact .inl rfl
  · exact .inr (fun e => h g rfl (by injection e))

end Go.Proofs.YtbaijmkghgnleaaGreatDoor

namespace Go.Proofs.YtbaijmkghgnleaaGreatDoor
open Go.RowKit
set_option linter.unusedVariables false

theorem ownBlock_of (a : Option Addr) (n cap : Nat) : (Value.slice a n cap).ownBlock = a.map (·.block) := by cases a <;> rfl

theorem seg_nil {w : World} {a : Option Addr} {len : Nat} {zs : List Int} (hs : Seg w a len zs) : a = none → len = 0 := by
  intro h
  rcases hs.2.2 with h0 | ⟨b, off, e, _⟩
  · exact h0
  · rw [h] at e; cases e

theorem seg_src {w : World} {a : Option Addr} {len : Nat} {zs : List Int} (hs : Seg w a len zs) : ∀ ad, a = some ad → ∀ j u, (zs.map (Value.int .u8))[j]? = some u → w.cell? (ad.add j) = some u := by
  intro ad ha j u hj
  have hl2 : j < zs.length := by
    by_cases h : j < zs.length
    · exact h
    · rw [List.getElem?_eq_none (by simp; omega)] at hj; cases hj
  rcases hs.2.2 with h | ⟨b, off, h, _⟩
  · have := hs.1; omega
  · rw [ha] at h
    injection h with h
    subst h
    subst ha
    exact cells_ints hs j u hj

end Go.Proofs.YtbaijmkghgnleaaGreatDoor

namespace Go.Proofs.YtbaijmkghgnleaaGreatDoor
open Go.RowKit
set_option linter.unusedVariables false

set_option maxHeartbeats 1600000 in
theorem specFrOk_any (k f s : Int) (a : Option Addr) (len cap : Nat) (w : World) :
    Calls Tryz.prog 49 #[.agg #[.int .i64 k, .int .i64 f, .int .i64 s, .slice a len cap]] w fun e w' => e = .returned (.bool (okF k f s len)) ∧ Below w.heap.size w w' := by
  by_cases c0 : 0 ≤ k
  case neg =>
    have e : okF k f s len = false := decide_eq_false (fun h => c0 h.1.1)
    rw [e]
    clear e
    go_enter Tryz.func49, Tryz.ntmps49
    go_wp2
    go_ret
    exact ⟨ret_bool (by simp; try omega), (Below.refl _ _).alloc (Nat.le_refl _) _⟩
  by_cases c1 : k ≤ 255
  case neg =>
    have e : okF k f s len = false := decide_eq_false (fun h => c1 h.1.2)
    rw [e]
    clear e
    go_enter Tryz.func49, Tryz.ntmps49
    go_wp2
    go_ret
    exact ⟨ret_bool (by simp; try omega), (Below.refl _ _).alloc (Nat.le_refl _) _⟩
  by_cases c2 : 0 ≤ f
  case neg =>
    have e : okF k f s len = false := decide_eq_false (fun h => c2 h.2.1.1)
    rw [e]
    clear e
    go_enter Tryz.func49, Tryz.ntmps49
    go_wp2
    go_ret
    exact ⟨ret_bool (by simp; try omega), (Below.refl _ _).alloc (Nat.le_refl _) _⟩
  by_cases c3 : f ≤ 255
  case neg =>
    have e : okF k f s len = false := decide_eq_false (fun h => c3 h.2.1.2)
    rw [e]
    clear e
    go_enter Tryz.func49, Tryz.ntmps49
    go_wp2
    go_ret
    exact ⟨ret_bool (by simp; try omega), (Below.refl _ _).alloc (Nat.le_refl _) _⟩
  by_cases c4 : 0 ≤ s
  case neg =>
    have e : okF k f s len = false := decide_eq_false (fun h => c4 h.2.2.1.1)
    rw [e]
    clear e
    go_enter Tryz.func49, Tryz.ntmps49
    go_wp2
    go_ret
    exact ⟨ret_bool (by simp; try omega), (Below.refl _ _).alloc (Nat.le_refl _) _⟩
  by_cases c5 : s ≤ 2147483647
  case neg =>
    have e : okF k f s len = false := decide_eq_false (fun h => c5 h.2.2.1.2)
    rw [e]
    clear e
    go_enter Tryz.func49, Tryz.ntmps49
    go_wp2
    go_ret
    exact ⟨ret_bool (by simp; try omega), (Below.refl _ _).alloc (Nat.le_refl _) _⟩
  by_cases c6 : (len : Int) ≤ 1000
  case neg =>
    have e : okF k f s len = false := decide_eq_false (fun h => c6 (by have := h.2.2.2; omega))
    rw [e]
    clear e
    go_enter Tryz.func49, Tryz.ntmps49
    go_wp2
    go_ret
    exact ⟨ret_bool (by simp; try omega), (Below.refl _ _).alloc (Nat.le_refl _) _⟩
  have e : okF k f s len = true := decide_eq_true ⟨⟨c0, c1⟩, ⟨c2, c3⟩, ⟨c4, c5⟩, by omega⟩
  rw [e]
  clear e
  go_enter Tryz.func49, Tryz.ntmps49
  go_wp2
  go_ret
  exact ⟨ret_bool (by simp; try omega), (Below.refl _ _).alloc (Nat.le_refl _) _⟩

end Go.Proofs.YtbaijmkghgnleaaGreatDoor
