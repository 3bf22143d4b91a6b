/- Pieces of a list of bytes. No program in it. What the program's dataRecs answers: the records of pieces, whose bytes lie where they were. What the program's putCode answers. What the program's PutUp answers. What the specification's PutUp answers. -/
import Derived.Test.YtammmecddnafaaaGreatDoorM01
import Derived.Test.YtammmecddnafaaaGreatDoorP03
import Derived.Test.YtammmecddnafaaaGreatDoorM20
import Derived.Test.YtammmecddnafaaaGreatDoorM16
import Derived.Test.YtammmecddnafaaaGreatDoorP02
import Derived.RangeFuncBox
import Derived.Deep.CutBlock
import Derived.Test.YtammmecddnafaaaGreatDoorP01
import Derived.Test.YtammmecddnafaaaGreatDoorM19
import Derived.Test.YtammmecddnafaaaGreatDoorM10
import Derived.Test.YtammmecddnafaaaGreatDoorM29
import Derived.Test.YtammmecddnafaaaGreatDoorM05
import Derived.Test.YtammmecddnafaaaGreatDoorM30
import Derived.Test.YtammmecddnafaaaGreatDoorM30
namespace Go.Proofs.YtammmecddnafaaaGreatDoor
open Go.RowKit
set_option linter.unusedVariables false

theorem seg_part {w : World} {b off len : Nat} {zs : List Int} (h : Seg w (some ⟨b, off, none⟩) len zs) (T n : Nat) (hT : T + n ≤ len) : Seg w (some ⟨b, off + T, none⟩) n ((zs.drop T).take n) := by
  have hl := h.1
  refine ⟨by rw [List.length_take, List.length_drop]; omega, fun x hx => h.2.1 x (List.mem_of_mem_drop (List.mem_of_mem_take hx)), ?_⟩
  rcases h.2.2 with h0 | ⟨b', off', e, hb, hc⟩
  · exact .inl (by omega)
  · simp only [Option.some.injEq, Addr.mk.injEq, and_true] at e
    obtain ⟨rfl, rfl⟩ := e
    refine .inr ⟨b, off + T, rfl, hb, fun i hi => ?_⟩
    rw [Nat.add_assoc, hc (T + i) (by omega)]
    rw [List.getD_eq_getElem?_getD, List.getD_eq_getElem?_getD, List.getElem?_take, if_pos hi, List.getElem?_drop]

theorem seg_empty {w : World} (a : Option Addr) : Seg w a 0 [] := ⟨rfl, by simp, .inl rfl⟩

theorem seg_some {w : World} {a : Option Addr} {len : Nat} {zs : List Int} (h : Seg w a len zs) (hl : 0 < len) : ∃ b off, a = some ⟨b, off, none⟩ ∧ w.cell? ⟨b, off, none⟩ = some (.int .u8 (zs.getD 0 0)) := by
  rcases h.2.2 with h0 | ⟨b, off, e, _, hc⟩
  · omega
  · exact ⟨b, off, e, by simpa using hc 0 hl⟩

/-- A piece of a list of bytes, by an address that may have stayed where it was if nothing is left. -/
theorem seg_cut {w : World} {b off len : Nat} {zs : List Int} (h : Seg w (some ⟨b, off, none⟩) len zs) (T n o : Nat) (hT : T + n ≤ len) (ho : o = off + T ∨ n = 0) : Seg w (some ⟨b, o, none⟩) n ((zs.drop T).take n) := by
  rcases ho with rfl | rfl
  · exact seg_part h T n hT
  · exact ⟨by simp, by simp, .inl rfl⟩

end Go.Proofs.YtammmecddnafaaaGreatDoor

namespace Go.Proofs.YtammmecddnafaaaGreatDoor
open Go.RowKit Go.Shelf
set_option linter.unusedVariables false
attribute [local go_sem] Oper.semAt_some

/-- The record of a piece, in the row. -/
def pieceE (id : ByteArray) (off : Int) (zs : List Int) (b o L i : Nat) : RE := ⟨dataR id off zs i, some ⟨b, pcAt o 24 i, none⟩, pcLen 24 L i, pcLen 24 L i⟩
def pieceL (id : ByteArray) (off : Int) (zs : List Int) (b o L k : Nat) : List RE := (List.range k).map (pieceE id off zs b o L)

theorem pieceL_len (id : ByteArray) (off : Int) (zs : List Int) (b o L k : Nat) : (pieceL id off zs b o L k).length = k := by simp [pieceL]

theorem pieceL_succ (id : ByteArray) (off : Int) (zs : List Int) (b o L k : Nat) : reCells (pieceL id off zs b o L (k + 1)) = reCells (pieceL id off zs b o L k) ++ RE.cells (pieceE id off zs b o L k) := by
  rw [pieceL, List.range_succ, List.map_append, reCells_append]
  simp [pieceL, reCells]

theorem pieceL_recs (id : ByteArray) (off : Int) (zs : List Int) (b o L : Nat) : (pieceL id off zs b o L (pcs zs.length)).map RE.r = dataRs id off zs := by
  rw [pieceL, dataRs, List.map_map]
  rfl

theorem rcsI_of_row {W : World} {base g n c : Nat} {l : List RE} (h : W.ownsRow base 59 6 (.slice (some ⟨g, 0, none⟩) n c) n (reCells l)) (hn : l.length = n) (hs : ∀ e ∈ l, Seg W e.a e.n e.r.zs) : RcsI W (some ⟨g, 0, none⟩) n l := by
  refine ⟨hn, hs, .inr ⟨g, 0, rfl, (h.lt g rfl).2, fun i hi => ?_⟩⟩
  have hl := reCells_len l
  obtain ⟨h0, h1, h2, h3, h4, h5⟩ := reCells_at l i hi
  simp only [Nat.zero_add]
  refine ⟨?_, ?_, ?_, ?_, ?_, ?_⟩
  · rw [h.cellAt _ (by omega)]; exact h0
  · rw [h.cellAt _ (by omega)]; exact h1
  · rw [h.cellAt _ (by omega)]; exact h2
  · rw [h.cellAt _ (by omega)]; exact h3
  · rw [h.cellAt _ (by omega)]; exact h4
  · rw [h.cellAt _ (by omega)]; exact h5

set_option maxRecDepth 10000 in
set_option maxHeartbeats 1600000 in
theorem implDataRs_any (id : ByteArray) (off : Int) (b o L C : Nat) (zs : List Int) (w : World) (hs : Seg w (some ⟨b, o, none⟩) L zs) (hC : L ≤ C) (hL : L ≤ 400) (hL1 : 1 ≤ L) (ho : 0 ≤ off ∧ off ≤ 1000000000) :
    Calls Tryz.prog 44 #[.string id, .int .i64 off, .slice (some ⟨b, o, none⟩) L C] w fun e w' => (∃ ra c l, e = .returned (.slice ra (pcs L) c) ∧ RcsI w' ra (pcs L) l ∧ l.map RE.r = dataRs id off zs) ∧ Below w.heap.size w w' := by
  obtain ⟨i0, hi, hz0, hz1, hz2⟩ := info_parts info_rec
  have HS : Hid (Seg w (some ⟨b, o, none⟩) L zs) := hs
  have hzl : zs.length = L := hs.1
  have HZl : Hid (zs.length = L) := hzl
  obtain ⟨n, hn⟩ : ∃ n, pcs L = n := ⟨_, rfl⟩
  have hn17 : 1 ≤ n ∧ n ≤ 17 := by rw [← hn, pcs]; omega
  have HN : Hid (∀ k, k * 24 < L → (¬ (k + 1) * 24 < L → n = k + 1)) := fun k h1 h2 => by rw [← hn, pcs]; omega
  have HNl : Hid (∀ k, k * 24 < L → k < n) := fun k h => by rw [← hn, pcs]; omega
  have HNn : Hid (pcs L = n) := hn
  have HPl : Hid (∀ k, (k + 1) * 24 < L → k * 24 + pcLen 24 L k = (k + 1) * 24) := fun k h => by unfold pcLen; omega
  rw [hn]
  clear hs hn hzl
  obtain ⟨W2, hW2⟩ : ∃ W2, ((((w.alloc (.cells #[.string id] 9)).alloc (.cells #[.int .i64 off] 3)).alloc (.cells #[.slice none 0 0] 71)).alloc (.cells #[.slice (some ⟨b, o, none⟩) L C] 39)).alloc (.cells #[.int .i64 24] 3) = W2 := ⟨_, rfl⟩
  have HE : Hid (((((w.alloc (.cells #[.string id] 9)).alloc (.cells #[.int .i64 off] 3)).alloc (.cells #[.slice none 0 0] 71)).alloc (.cells #[.slice (some ⟨b, o, none⟩) L C] 39)).alloc (.cells #[.int .i64 24] 3) = W2) := hW2
  have hsz : W2.heap.size = w.heap.size + 5 := by rw [← hW2]; simp
  have bI : Boxed W2 w.heap.size 9 (.string id) := by rw [← hW2]; exact ((((Boxed.new _ _ _).alloc _).alloc _).alloc _).alloc _
  have bO : Boxed W2 (w.heap.size + 1) 3 (.int .i64 off) := by
    rw [← hW2]
    have := (((Boxed.new (w.alloc (.cells #[.string id] 9)) 3 (.int .i64 off)).alloc (.cells #[.slice none 0 0] 71)).alloc (.cells #[.slice (some ⟨b, o, none⟩) L C] 39)).alloc (.cells #[.int .i64 24] 3)
    rwa [World.size_alloc] at this
  have bL : Boxed W2 (w.heap.size + 2) 71 (.slice none 0 0) := by
    rw [← hW2]
    have := ((Boxed.new ((w.alloc (.cells #[.string id] 9)).alloc (.cells #[.int .i64 off] 3)) 71 (.slice none 0 0)).alloc (.cells #[.slice (some ⟨b, o, none⟩) L C] 39)).alloc (.cells #[.int .i64 24] 3)
    rwa [World.size_alloc, World.size_alloc] at this
  have bS : Boxed W2 (w.heap.size + 3) 39 (.slice (some ⟨b, o, none⟩) L C) := by
    rw [← hW2]
    have := (Boxed.new (((w.alloc (.cells #[.string id] 9)).alloc (.cells #[.int .i64 off] 3)).alloc (.cells #[.slice none 0 0] 71)) 39 (.slice (some ⟨b, o, none⟩) L C)).alloc (.cells #[.int .i64 24] 3)
    rwa [World.size_alloc, World.size_alloc, World.size_alloc] at this
  have bN : Boxed W2 (w.heap.size + 4) 3 (.int .i64 24) := by
    rw [← hW2]
    have := Boxed.new ((((w.alloc (.cells #[.string id] 9)).alloc (.cells #[.int .i64 off] 3)).alloc (.cells #[.slice none 0 0] 71)).alloc (.cells #[.slice (some ⟨b, o, none⟩) L C] 39)) 3 (.int .i64 24)
    rwa [World.size_alloc, World.size_alloc, World.size_alloc, World.size_alloc] at this
  have hBl : Below w.heap.size w W2 := by rw [← hW2]; exact (((((Below.refl _ _).alloc (Nat.le_refl _) _).alloc (by simp) _).alloc (by simp; omega) _).alloc (by simp; omega) _).alloc (by simp; omega) _
  have HI0 : Hid ((∃ u, Boxed W2 (w.heap.size + 2) 71 u ∧ W2.ownsRow w.heap.size 59 6 u 0 (reCells (pieceL id off zs b o L 0)) ∧ True) ∧ Boxed W2 (w.heap.size + 1) 3 (.int .i64 (off + ((0 * 24 : Nat) : Int))) ∧ Boxed W2 w.heap.size 9 (.string id) ∧ Boxed W2 (w.heap.size + 3) 39 (.slice (some ⟨b, o, none⟩) L C) ∧ Boxed W2 (w.heap.size + 4) 3 (.int .i64 24) ∧ True ∧ Below w.heap.size w W2) := by
    refine ⟨⟨_, bL, ⟨rfl, .inl ⟨rfl, rfl⟩⟩, trivial⟩, ?_, bI, bS, bN, trivial, hBl⟩
    have e : off + ((0 * 24 : Nat) : Int) = off := by simp
    rw [e]
    exact bO
  clear hW2 bI bO bL bS bN hBl
  refine (callsIn_wide (n := 4)).1 ?_
  refine callsIn_of_wp_marks Tryz.func44 rfl trivial ?_ rfl
  simp only [Tryz.ntmps44, List.size_toArray, List.length_cons, List.length_nil, Nat.reduceAdd, Nat.reduceSub, Array.replicate_succ, Array.replicate_zero, List.push_toArray, List.append_toArray, List.nil_append, List.cons_append]
  refine wpIn_wide.2 ?_
  go_wp2_with (go_at_call 80; refine (callsIn_wide.1 (chunk_any _ _ _ 24 _ 4 (by decide))).mono ?_; rintro e w5 ⟨rfl, rfl⟩)
  rw [HE.out]
  clear HE
  refine (wpIn_wide (n := 4)).1 ?_
  refine loop_turns (n := 4) rfl (by decide) (gf := 102) (lb := #[.pointer (some ⟨w.heap.size + 3, 0, none⟩), .pointer (some ⟨w.heap.size + 4, 0, none⟩)]) rfl trivial (enters_of Tryz.func102 (by kernel_rfl) rfl) (encC b o 24 L) (fun _ => rfl)
    (fun (k : Nat) W => (∃ u, Boxed W (w.heap.size + 2) 71 u ∧ W.ownsRow w.heap.size 59 6 u k (reCells (pieceL id off zs b o L k)) ∧ True) ∧ Boxed W (w.heap.size + 1) 3 (.int .i64 (off + ((k * 24 : Nat) : Int))) ∧ Boxed W w.heap.size 9 (.string id) ∧ Boxed W (w.heap.size + 3) 39 (.slice (some ⟨b, o, none⟩) L C) ∧ Boxed W (w.heap.size + 4) 3 (.int .i64 24) ∧ k * 24 < L ∧ Below w.heap.size w W)
    (fun (k : Nat) W => (∃ u, Boxed W (w.heap.size + 2) 71 u ∧ W.ownsRow w.heap.size 59 6 u (k + 1) (reCells (pieceL id off zs b o L (k + 1))) ∧ True) ∧ Boxed W (w.heap.size + 1) 3 (.int .i64 (off + ((k * 24 + pcLen 24 L k : Nat) : Int))) ∧ Boxed W w.heap.size 9 (.string id) ∧ Boxed W (w.heap.size + 3) 39 (.slice (some ⟨b, o, none⟩) L C) ∧ Boxed W (w.heap.size + 4) 3 (.int .i64 24) ∧ k * 24 < L ∧ Below w.heap.size w W)
    (fun _ _ _ => False)
    (fun (_ : Nat) W => (∃ u, Boxed W (w.heap.size + 2) 71 u ∧ W.ownsRow w.heap.size 59 6 u n (reCells (pieceL id off zs b o L n)) ∧ True) ∧ Below w.heap.size w W)
    (fun W => (∃ u, Boxed W (w.heap.size + 2) 71 u ∧ W.ownsRow w.heap.size 59 6 u 0 (reCells (pieceL id off zs b o L 0)) ∧ True) ∧ Boxed W (w.heap.size + 1) 3 (.int .i64 (off + ((0 * 24 : Nat) : Int))) ∧ Boxed W w.heap.size 9 (.string id) ∧ Boxed W (w.heap.size + 3) 39 (.slice (some ⟨b, o, none⟩) L C) ∧ Boxed W (w.heap.size + 4) 3 (.int .i64 24) ∧ True ∧ Below w.heap.size w W)
    (chunk_iter 3 _ (w.heap.size + 3) (w.heap.size + 4) b o L C 24 (by decide) (by omega) hC (by decide) (by decide) _ _ _ _ _
      (fun W h => ⟨h.2.2.2.1, h.2.2.2.2.1, fun h0 => ⟨h.1, h.2.1, h.2.2.1, h.2.2.2.1, h.2.2.2.2.1, by omega, h.2.2.2.2.2.2⟩, fun h0 => absurd (by omega) h0⟩)
      (fun k W h => ⟨h.1, h.2.1, h.2.2.1, h.2.2.2.1, h.2.2.2.2.1, h.2.2.2.2.2.1, h.2.2.2.2.2.2.drew⟩)
      (fun k W h => ⟨h.2.2.2.1, h.2.2.2.2.1⟩)
      (fun k W h => ⟨h.2.2.2.1, h.2.2.2.2.1, fun h0 => ⟨h.1, (HPl.out k h0) ▸ h.2.1, h.2.2.1, h.2.2.2.1, h.2.2.2.2.1, h0, h.2.2.2.2.2.2⟩, fun h0 => ⟨by rw [HN.out k h.2.2.2.2.2.1 h0]; exact h.1, h.2.2.2.2.2.2⟩⟩))
    (OwnFrom.and (Own.from (holdsRow_own w.heap.size (w.heap.size + 2) 71 59 6 (fun k : Nat => k) (fun k : Nat => reCells (pieceL id off zs b o L k)) (fun _ _ => True)) _) (OwnFrom.and (Own.from (boxed_own _ _ (fun k : Nat => .int .i64 (off + ((k * 24 : Nat) : Int)))) _) (OwnFrom.and (Own.from (boxed_own _ _ (fun k : Nat => .string id)) _) (OwnFrom.and (Own.from (boxed_own _ _ (fun k : Nat => .slice (some ⟨b, o, none⟩) L C)) _) (OwnFrom.and (Own.from (boxed_own _ _ (fun k : Nat => .int .i64 24)) _) (OwnFrom.and (ownFrom_pure _ (fun k : Nat => k * 24 < L)) (ownFrom_below (Nat.le_refl _) (by omega))))))))
    (OwnFrom.and (Own.from (holdsRow_own w.heap.size (w.heap.size + 2) 71 59 6 (fun k : Nat => k + 1) (fun k : Nat => reCells (pieceL id off zs b o L (k + 1))) (fun _ _ => True)) _) (OwnFrom.and (Own.from (boxed_own _ _ (fun k : Nat => .int .i64 (off + ((k * 24 + pcLen 24 L k : Nat) : Int)))) _) (OwnFrom.and (Own.from (boxed_own _ _ (fun k : Nat => .string id)) _) (OwnFrom.and (Own.from (boxed_own _ _ (fun k : Nat => .slice (some ⟨b, o, none⟩) L C)) _) (OwnFrom.and (Own.from (boxed_own _ _ (fun k : Nat => .int .i64 24)) _) (OwnFrom.and (ownFrom_pure _ (fun k : Nat => k * 24 < L)) (ownFrom_below (Nat.le_refl _) (by omega))))))))
    (fun c s W W' row hs hg hr => hs)
    (OwnFrom.and (Own.from (holdsRow_own w.heap.size (w.heap.size + 2) 71 59 6 (fun k : Nat => n) (fun k : Nat => reCells (pieceL id off zs b o L n)) (fun _ _ => True)) _) (ownFrom_below (Nat.le_refl _) (by omega)))
    (OwnFrom.and (Own.from (holdsRow_own w.heap.size (w.heap.size + 2) 71 59 6 (fun _ : Unit => 0) (fun _ : Unit => reCells (pieceL id off zs b o L 0)) (fun _ _ => True)) _) (OwnFrom.and (Own.from (boxed_own _ _ (fun _ : Unit => .int .i64 (off + ((0 * 24 : Nat) : Int)))) _) (OwnFrom.and (Own.from (boxed_own _ _ (fun _ : Unit => .string id)) _) (OwnFrom.and (Own.from (boxed_own _ _ (fun _ : Unit => .slice (some ⟨b, o, none⟩) L C)) _) (OwnFrom.and (Own.from (boxed_own _ _ (fun _ : Unit => .int .i64 24)) _) (OwnFrom.and (ownFrom_pure _ (fun _ : Unit => True)) (ownFrom_below (Nat.le_refl _) (by omega))))))))
    HI0.out ?frame ?assign ?body ?done ?stop
  case assign =>
    intro l s W K hK
    gi_wp2
    exact hK
  case body =>
    rintro l k W ⟨⟨u, hu, hrow, _⟩, hbO, hbI, hbS, hbN, hk, hB⟩
    have hkn : k < n := HNl.out k hk
    have hc := hu.cell
    have hcO := hbO.cell
    have hcI := hbI.cell
    have hszW := hB.size
    obtain ⟨A0, hA0⟩ : ∃ A0, pcAt o 24 k = A0 := ⟨_, rfl⟩
    obtain ⟨pl, hpl⟩ : ∃ pl, pcLen 24 L k = pl := ⟨_, rfl⟩
    have hpl24 : pl ≤ 24 := by rw [← hpl, pcLen]; omega
    obtain ⟨OV, hOV⟩ : ∃ OV, off + ((k * 24 : Nat) : Int) = OV := ⟨_, rfl⟩
    rw [hOV] at hcO hbO
    have HE2 : Hid (reCells (pieceL id off zs b o L k) ++ [.int .i64 0, .int .i64 0, .int .i64 2, .string id, .int .i64 OV, .slice (some ⟨b, A0, none⟩) pl pl] = reCells (pieceL id off zs b o L (k + 1))) := by
      show _ = _
      rw [pieceL_succ, ← hA0, ← hpl, ← hOV, Nat.mul_comm k 24]
      rfl
    have HN2 : Hid (∀ j u, ([.int .i64 0, .int .i64 0, .int .i64 2, .string id, .int .i64 OV, .slice (some ⟨b, A0, none⟩) pl pl] : List Value)[j]? = some u → (W.alloc (.cells #[.int .i64 0, .int .i64 0, .int .i64 2, .string id, .int .i64 OV, .slice (some ⟨b, A0, none⟩) pl pl] 59)).cell? ((⟨W.heap.size, 0, none⟩ : Addr).add j) = some u) := six_new W ⟨0, 0, 2, id, OV, []⟩ (some ⟨b, A0, none⟩) pl pl
    have HO2 : Hid (∀ u ∈ ([.int .i64 0, .int .i64 0, .int .i64 2, .string id, .int .i64 OV, .slice (some ⟨b, A0, none⟩) pl pl] : List Value), u.oneCell' = true) := six_one ⟨0, 0, 2, id, OV, []⟩ (some ⟨b, A0, none⟩) pl pl
    have hOVb : OV + (pl : Int) < 9223372036854775808 ∧ -9223372036854775808 ≤ OV + (pl : Int) := by omega
    obtain ⟨hOV1, hOV2⟩ := hOVb
    have HOV : Hid (off + ((k * 24 + pl : Nat) : Int) = OV + (pl : Int)) := by show _ = _; omega
    simp only [hA0, hpl]
    gi_wp2_with (gi_at_builtin; refine wpListIn_append_own _ rfl _ _ 71 rfl w.heap.size 59 i0 (.agg #[.int .i64 0, .int .i64 0, .int .i64 0, .string ⟨#[]⟩, .int .i64 0, .slice none 0 0]) 6 72 Tryz.underlying71 hi hz0 hz1 hz2 rfl (by decide) _ _ _ rfl (hrow.alloc _) ⟨W.heap.size, 0, none⟩ 1 1 [.int .i64 0, .int .i64 0, .int .i64 2, .string id, .int .i64 OV, .slice (some ⟨b, A0, none⟩) pl pl] rfl rfl HN2.out HO2.out (by unfold maxLen; omega) (by omega) (by simp; omega) ?_; intro v' w1 hown' hgrow _; obtain ⟨g', cap', rfl⟩ := ownsRow_succ hown'; obtain ⟨hv1, hv2, hr2, hk2, hb2⟩ := hu.appended (by decide) hrow hB.size (by omega) hown' hgrow; have hc1 := hv1.cell; have hf1 := hv1.frozen; have hO2 := ((hbO.alloc (.cells #[.int .i64 0, .int .i64 0, .int .i64 2, .string id, .int .i64 OV, .slice (some ⟨b, A0, none⟩) pl pl] 59)).kept hgrow (hbO.not_row (by decide) hrow)).other (B' := w.heap.size + 2) (by omega) (.slice (some ⟨g', 0, none⟩) (k + 1) cap'); have hcO2 := hO2.cell; have hfO2 := hO2.frozen)
    have hI2 := (((hbI.alloc (.cells #[.int .i64 0, .int .i64 0, .int .i64 2, .string id, .int .i64 OV, .slice (some ⟨b, A0, none⟩) pl pl] 59)).kept hgrow (hbI.not_row (by decide) hrow)).other (B' := w.heap.size + 2) (by omega) (.slice (some ⟨g', 0, none⟩) (k + 1) cap')).other (B' := w.heap.size + 1) (by omega) (.int .i64 (OV + (pl : Int)))
    have hS2 := (((hbS.alloc (.cells #[.int .i64 0, .int .i64 0, .int .i64 2, .string id, .int .i64 OV, .slice (some ⟨b, A0, none⟩) pl pl] 59)).kept hgrow (hbS.not_row (by decide) hrow)).other (B' := w.heap.size + 2) (by omega) (.slice (some ⟨g', 0, none⟩) (k + 1) cap')).other (B' := w.heap.size + 1) (by omega) (.int .i64 (OV + (pl : Int)))
    have hN2 := (((hbN.alloc (.cells #[.int .i64 0, .int .i64 0, .int .i64 2, .string id, .int .i64 OV, .slice (some ⟨b, A0, none⟩) pl pl] 59)).kept hgrow (hbN.not_row (by decide) hrow)).other (B' := w.heap.size + 2) (by omega) (.slice (some ⟨g', 0, none⟩) (k + 1) cap')).other (B' := w.heap.size + 1) (by omega) (.int .i64 (OV + (pl : Int)))
    rw [HE2.out] at hr2
    refine ⟨(hk2.trans (KeepsOthers.setCell _ _ _)).from _, ⟨_, hv2.other (by omega) _, hr2.kept (grownBy_setCell' _ (w.heap.size + 1) _) (.inr (hO2.not_row (by decide) hr2).symm), trivial⟩, ?_, hI2, hS2, hN2, hk, (hB.trans hb2).setCell (p := ⟨w.heap.size + 1, 0, none⟩) (by show w.heap.size ≤ w.heap.size + 1; omega) _⟩
    rw [HOV.out]
    exact hO2.set _
  case done =>
    rintro D k W hD ⟨⟨u, hu, hrow, _⟩, hB⟩ hK
    obtain ⟨P, hP⟩ : ∃ P, n = P + 1 := ⟨n - 1, by omega⟩
    rw [hP] at hrow
    obtain ⟨g, cap, rfl⟩ := ownsRow_succ hrow
    have hc := hu.cell
    have HR : Hid (W.ownsRow w.heap.size 59 6 (.slice (some ⟨g, 0, none⟩) (P + 1) cap) (P + 1) (reCells (pieceL id off zs b o L (P + 1)))) := hrow
    have HB : Hid (Below w.heap.size w W) := hB
    have HK : Hid (W.heap[D]? = some (.deferred (some []))) := hK
    have HP : Hid (pcs L = P + 1) := by show _ = _; rw [HNn.out, hP]
    have HSW : Hid (∀ W', Below w.heap.size w W' → ∀ e ∈ pieceL id off zs b o L (P + 1), Seg W' e.a e.n e.r.zs) := fun W' hb e he => by
      obtain ⟨i, hi, rfl⟩ := List.mem_map.1 he
      have hi' := List.mem_range.1 hi
      have h1 := HP.out
      have h2 : pcLen 24 L i = min 24 (L - 24 * i) := by rw [pcLen, Nat.mul_comm]
      have h3 : 24 * i + pcLen 24 L i ≤ L := by rw [h2]; unfold pcs at h1; omega
      have h4 := seg_part (HS.out.below hb) (24 * i) (pcLen 24 L i) h3
      show Seg W' (some ⟨b, pcAt o 24 i, none⟩) (pcLen 24 L i) ((zs.drop (24 * i)).take 24)
      have e1 : (zs.drop (24 * i)).take (pcLen 24 L i) = (zs.drop (24 * i)).take 24 := by
        rw [h2]
        by_cases h5 : 24 ≤ L - 24 * i
        · rw [Nat.min_eq_left h5]
        · rw [Nat.min_eq_right (by omega), List.take_of_length_le (by rw [List.length_drop, HZl.out]; omega), List.take_of_length_le (by rw [List.length_drop, HZl.out]; omega)]
      rw [e1] at h4
      have e2 : pcAt o 24 i = o + 24 * i := by rw [pcAt, Nat.mul_comm]
      rw [e2]
      exact h4
    subst hP
    clear hrow hB hK
    dsimp only
    go_wp2_with fail
    refine ⟨by simp, .inl ⟨_, _, rfl, run_takeDeferred HK.out, ?_⟩⟩
    have hbw : Below w.heap.size w (W.putObj D (.deferred none)) := HB.out.grown (grownBy_putObj' _ D _) HB.out.size (fun q e => by injection e with e; omega)
    refine ⟨_, results_tmp rfl _ _ _, ⟨some ⟨g, 0, none⟩, cap, pieceL id off zs b o L (P + 1), rfl, rcsI_of_row (ownsRow_putObj HR.out _ HK.out rfl) (pieceL_len _ _ _ _ _ _ _) (HSW.out _ hbw), ?_⟩, hbw⟩
    rw [← pieceL_recs id off zs b o L, HZl.out, HP.out]
  case stop =>
    rintro D c s W hD h
    exact h.elim

end Go.Proofs.YtammmecddnafaaaGreatDoor

namespace Go.Proofs.YtammmecddnafaaaGreatDoor
open Go.RowKit
set_option linter.unusedVariables false

set_option maxRecDepth 10000 in
set_option maxHeartbeats 3200000 in
theorem implPutC_any (a : Option Addr) (n ca : Nat) (X : List ByteArray) (a' : Option Addr) (n' ca' : Nat) (Y : List ByteArray) (ep nx : Int) (ua : Option Addr) (un uc lo : Nat) (l : List UE) (id : ByteArray) (off : Int) (da : Option Addr) (dl dc : Nat) (zs : List Int) (w : World) (h1 : Strs w a n X) (h2 : Strs w a' n' Y) (hn : n ≤ 1048576) (hn' : n' ≤ 1048576) (hzx : ∀ x ∈ X, x.size ≤ 1048576) (hu : UpRow w lo (.slice ua un uc) l) (hun : un = l.length) (hul : un ≤ 1048576) (hid : id.size ≤ maxLen) (hsd : Seg w da dl zs) (hdc : dl ≤ dc) (hdl : dl ≤ maxLen) (hsl : SlOk a n ca) (ht : RecT w) (he : ErrN w) :
    Calls Tryz.prog 43 #[.agg #[.slice a n ca, .slice a' n' ca', .int .i64 ep, .int .i64 nx, .slice ua un uc], .string id, .int .i64 off, .slice da dl dc] w fun e w' => e = .returned (.int .i64 (putA X Y ep nx (l.map UE.u) id off zs).c) ∧ Below w.heap.size w w' := by
  have hmm : maxLen < 9223372036854775808 := by decide
  obtain ⟨w0, hw0⟩ : ∃ w0, w.alloc (.cells #[.slice a n ca, .slice a' n' ca', .int .i64 ep, .int .i64 nx, .slice ua un uc] 32) = w0 := ⟨_, rfl⟩
  have HE : Hid (w.alloc (.cells #[.slice a n ca, .slice a' n' ca', .int .i64 ep, .int .i64 nx, .slice ua un uc] 32) = w0) := hw0
  have hB : Below w.heap.size w w0 := by rw [← hw0]; exact (Below.refl _ _).alloc (Nat.le_refl _) _
  have hQ : BoxN w0 w.heap.size 32 [.slice a n ca, .slice a' n' ca', .int .i64 ep, .int .i64 nx, .slice ua un uc] := by rw [← hw0]; exact BoxN.new _ _ _
  have HX : Hid (∀ W, Below w0.heap.size w0 W → BoxN W w.heap.size 32 [.slice a n ca, .slice a' n' ca', .int .i64 ep, .int .i64 nx, .slice ua un uc] ∧ Strs W a n X ∧ Strs W a' n' Y ∧ UpRow W lo (.slice ua un uc) l ∧ Below w.heap.size w W ∧ (RecT W ∧ ErrN W) ∧ Seg W da dl zs) := fun W hb => by
    have hw : Below w.heap.size w W := hB.trans (hb.mono hB.size)
    exact ⟨hQ.stays hb, h1.below hw, h2.below hw, hu.stays hw, hw, ⟨ht.below hw, he.below hw⟩, hsd.below hw⟩
  have HL : Hid (un = l.length ∧ (∀ x ∈ X, x.size ≤ 1048576) ∧ X.length = n ∧ zs.length = dl) := ⟨hun, hzx, h1.1, hsd.1⟩
  have HA0 : Hid (Below w0.heap.size w0 w0) := Below.refl _ _
  clear hw0 h1 h2 hu hun hzx ht he hB hQ hsd
  obtain ⟨c0, c1, c2, c3, c4⟩ := (show _ ∧ _ ∧ _ ∧ _ ∧ _ from ⟨(HX.out _ HA0.out).1.cell 0 rfl, (HX.out _ HA0.out).1.cell 1 rfl, (HX.out _ HA0.out).1.cell 2 rfl, (HX.out _ HA0.out).1.cell 3 rfl, (HX.out _ HA0.out).1.cell 4 rfl⟩)
  go_enter Tryz.func43, Tryz.ntmps43
  go_upto_region 1 with fail
  rw [HE.out]
  clear HE
  go_wp2_with fail
  refine (implUpFor_any a n ca X a' n' ca' Y ep nx ua un uc lo l id w0 (HX.out _ HA0.out).2.1 (HX.out _ HA0.out).2.2.1 hn hn' HL.out.2.1 (HX.out _ HA0.out).2.2.2.1 HL.out.1 hul hid hsl (HX.out _ HA0.out).2.2.2.2.2.1.1 (HX.out _ HA0.out).2.2.2.2.2.1.2).mono ?_
  rintro _ y1 ⟨rfl, hb1⟩
  have HC1 : Hid (Below w0.heap.size w0 y1) := hb1
  clear hb1 c0 c1 c2 c3 c4
  obtain ⟨fp, hfp⟩ : ∃ fp, forP X Y ep nx (l.map UE.u) id ua = fp := ⟨_, rfl⟩
  obtain ⟨fc, hfc⟩ : ∃ fc, forC X Y ep nx (l.map UE.u) id = fc := ⟨_, rfl⟩
  rw [hfp, hfc]
  by_cases hl1 : (dl : Int) < 1
  · have hd1 : decide ((dl : Int) < 1) = true := by simpa using hl1
    clear hfp hfc
    have HRs : Hid ((putA X Y ep nx (l.map UE.u) id off zs).c = 1) := put_form (by rw [HL.out.2.2.2]; omega)
    have HBw : Hid (Below w.heap.size w y1) := (HX.out _ HC1.out).2.2.2.2.1
    clear HX HC1
    go_wp2_with fail
    go_ret
    exact ⟨ret_int HRs.out.symm, HBw.out⟩
  have hd1 : decide ((dl : Int) < 1) = false := by simpa using hl1
  by_cases hl2 : 400 < (dl : Int)
  · have hd2 : decide (400 < (dl : Int)) = true := by simpa using hl2
    clear hfp hfc
    have HRs : Hid ((putA X Y ep nx (l.map UE.u) id off zs).c = 1) := put_form (by rw [HL.out.2.2.2]; omega)
    have HBw : Hid (Below w.heap.size w y1) := (HX.out _ HC1.out).2.2.2.2.1
    clear HX HC1
    go_wp2_with fail
    go_ret
    exact ⟨ret_int HRs.out.symm, HBw.out⟩
  have hd2 : decide (400 < (dl : Int)) = false := by simpa using hl2
  have HLn : Hid (1 ≤ zs.length ∧ zs.length ≤ 400) := by show _ ∧ _; rw [HL.out.2.2.2]; omega
  by_cases h0 : fc = 0
  case neg =>
    have hd0 : (fc != 0) = true := by simpa using h0
    clear hfp
    have HRs : Hid ((putA X Y ep nx (l.map UE.u) id off zs).c = fc) := by show _ = _; rw [← hfc]; exact put_forC HLn.out (by rw [hfc]; exact h0)
    have HBw : Hid (Below w.heap.size w y1) := (HX.out _ HC1.out).2.2.2.2.1
    clear HX HC1
    go_wp2_with fail
    go_ret
    exact ⟨ret_int HRs.out.symm, HBw.out⟩
  subst h0
  obtain ⟨hso, hid', k, hat⟩ := forC_zero hfc
  have hfs := (for_some (ua := ua) (decB_true hso) hid' hat).1
  obtain ⟨hen, hn0, hnX, hX200⟩ := hso.nums
  have hkl : k < l.length := by simpa using (atU_is hat).1
  have hguk : (l.map UE.u)[k]? = some (l[k]).u := by rw [List.getElem?_map, List.getElem?_eq_getElem hkl]; rfl
  obtain ⟨g, hg, g0, g1, g2, g3, _⟩ := (HX.out _ HC1.out).2.2.2.1.at HL.out.1 hkl
  have hfp2 : fp = some ⟨g, k * 4, none⟩ := by rw [← hfp, hfs, hg]; rfl
  have HSo : Hid (SOk X Y ep nx (l.map UE.u)) := hso
  have HCo : Hid ((putA X Y ep nx (l.map UE.u) id off zs).c = if (l[k]).u.done = true ∨ off ≠ ((l[k]).u.zs.length : Int) ∨ (l[k]).u.want < off + (zs.length : Int) then 4 else if (X.length : Int) - nx < (pcs zs.length : Int) then 5 else 0) := put_at hso hid' HLn.out hat hguk
  have hzn : (l[k]).u.zs.length = (l[k]).n := ((HX.out _ HC1.out).2.2.2.1.2.1 _ (List.getElem_mem hkl)).seg.1
  have hz48 : (l[k]).n ≤ 1099511627776 := by have := (fold_small hso.1 hso.2.2.1).2 _ (List.mem_map_of_mem (List.getElem_mem hkl)); omega
  have HWt : Hid (0 ≤ (l[k]).u.want ∧ (l[k]).u.want ≤ 1000000000) := hso.wants _ (List.mem_map_of_mem (List.getElem_mem hkl))
  have HFt : Hid (Calls Tryz.prog 79 #[.pointer (some ⟨g, k * 4, none⟩), .int .i64 off, .slice da dl dc] y1 fun e w' => e = .returned (.bool (fitB (l[k]).u off dl)) ∧ w' = y1) := implFits_any g (k * 4) (l[k]).u (l[k]).a (l[k]).n (l[k]).c off da dl dc y1 g1 g2 g3 hzn (hso.fitsU _ (List.mem_map_of_mem (List.getElem_mem hkl))) hz48 (by omega)
  subst hfp2
  clear hfp hfc hfs hso hguk g0 g1 g2 g3 hg hzn hz48
  generalize l[k] = x at *
  go_wp2_with fail
  refine HFt.out.mono ?_
  rintro _ y1 ⟨rfl, rfl⟩
  cases hfi : fitB x.u off dl with
  | false =>
    have hno : x.u.done = true ∨ off ≠ (x.u.zs.length : Int) ∨ x.u.want < off + (zs.length : Int) := fit_no (by rw [HL.out.2.2.2]; exact hfi) HWt.out
    clear hfi
    have HRs : Hid ((putA X Y ep nx (l.map UE.u) id off zs).c = 4) := by show _ = _; rw [HCo.out, if_pos hno]
    have HBw : Hid (Below w.heap.size w y1) := (HX.out _ HC1.out).2.2.2.2.1
    clear HX HC1
    go_wp2_with fail
    go_ret
    exact ⟨ret_int HRs.out.symm, HBw.out⟩
  | true =>
  have hyes : ¬ (x.u.done = true ∨ off ≠ (x.u.zs.length : Int) ∨ x.u.want < off + (zs.length : Int)) := fit_yes (by rw [HL.out.2.2.2]; exact hfi)
  have HCo2 : Hid ((putA X Y ep nx (l.map UE.u) id off zs).c = if (X.length : Int) - nx < (pcs zs.length : Int) then 5 else 0) := by show _ = _; rw [HCo.out, if_neg hyes]
  have hofb : 0 ≤ off ∧ off ≤ 1000000000 := by
    have h1 : ¬ off ≠ (x.u.zs.length : Int) := fun h => hyes (.inr (.inl h))
    have h2 : ¬ x.u.want < off + (zs.length : Int) := fun h => hyes (.inr (.inr h))
    have h3 := HWt.out
    omega
  clear hfi hyes HCo HFt
  have hdl1 : 1 ≤ dl ∧ dl ≤ 400 := by omega
  obtain ⟨db, do_, hda⟩ : ∃ db do_, da = some ⟨db, do_, none⟩ := by
    rcases (HX.out _ HC1.out).2.2.2.2.2.2.2.2 with h | ⟨db, do_, h, _⟩
    · omega
    · exact ⟨db, do_, h⟩
  subst hda
  have HBd : Hid (Below w0.heap.size w0 y1.drew) := HC1.out.drew
  have HDr : Hid (Calls Tryz.prog 44 #[.string id, .int .i64 off, .slice (some ⟨db, do_, none⟩) dl dc] y1.drew fun e w' => (∃ ra c rl, e = .returned (.slice ra (pcs dl) c) ∧ RcsI w' ra (pcs dl) rl ∧ rl.map RE.r = dataRs id off zs) ∧ Below y1.drew.heap.size y1.drew w') := implDataRs_any id off db do_ dl dc zs y1.drew (HX.out _ HBd.out).2.2.2.2.2.2 hdc hdl1.2 hdl1.1 hofb
  obtain ⟨Pn, hPn⟩ : ∃ Pn, pcs dl = Pn := ⟨_, rfl⟩
  rw [hPn] at HDr
  have HPn : Hid (pcs zs.length = Pn) := by show _ = _; rw [HL.out.2.2.2]; exact hPn
  have hP17 : Pn ≤ 17 := by rw [← hPn, pcs]; omega
  clear hPn
  obtain ⟨c0, c1, c2, c3, c4⟩ := (show _ ∧ _ ∧ _ ∧ _ ∧ _ from ⟨(HX.out _ HC1.out).1.cell 0 rfl, (HX.out _ HC1.out).1.cell 1 rfl, (HX.out _ HC1.out).1.cell 2 rfl, (HX.out _ HC1.out).1.cell 3 rfl, (HX.out _ HC1.out).1.cell 4 rfl⟩)
  go_upto_region 8 with fail
  go_region_held3 (fun W => W.cell? ⟨w.heap.size, 0, none⟩ = some (.slice a n ca) ∧ W.cell? ⟨w.heap.size, 1, none⟩ = some (.slice a' n' ca') ∧ W.cell? ⟨w.heap.size, 2, none⟩ = some (.int .i64 ep) ∧ W.cell? ⟨w.heap.size, 3, none⟩ = some (.int .i64 nx) ∧ W.cell? ⟨w.heap.size, 4, none⟩ = some (.slice ua un uc)) (first | with_reducible exact ⟨e0, e1, e2, e3, e4⟩ | with_reducible exact ⟨c0, c1, c2, c3, c4⟩ | exact ⟨c0, c1, c2, c3, c4⟩) (first
    | (go_at_call 44; refine HDr.out.mono ?_; rintro _ y2 ⟨⟨ra, rc, rl, rfl, _, _⟩, hb2⟩
       have hB2 : Below w0.heap.size w0 y2 := HBd.out.trans (hb2.mono HBd.out.size)
       have e0 := (HX.out _ hB2).1.cell 0 rfl
       have e1 := (HX.out _ hB2).1.cell 1 rfl
       have e2 := (HX.out _ hB2).1.cell 2 rfl
       have e3 := (HX.out _ hB2).1.cell 3 rfl
       have e4 := (HX.out _ hB2).1.cell 4 rfl)
    | (go_at_call 64; refine (implRoom_any a n ca a' n' ca' ep nx ua un uc (Pn : Int) y2 (by omega) (by omega)).mono ?_; rintro _ y3 ⟨rfl, hb3⟩
       have hB3 : Below w0.heap.size w0 y3 := hB2.trans (hb3.mono hB2.size)
       have e0 := (HX.out _ hB3).1.cell 0 rfl
       have e1 := (HX.out _ hB3).1.cell 1 rfl
       have e2 := (HX.out _ hB3).1.cell 2 rfl
       have e3 := (HX.out _ hB3).1.cell 3 rfl
       have e4 := (HX.out _ hB3).1.cell 4 rfl)
    | fail)
  have HC3 : Hid (Below w0.heap.size w0 y3) := hB3
  clear hb2 hb3 hB2 hB3 e0 e1 e2 e3 e4 c0 c1 c2 c3 c4 HDr HBd HC1
  by_cases hroom : (Pn : Int) ≤ (n : Int) - nx
  case neg =>
    rw [decide_eq_false hroom]
    have HRs : Hid ((putA X Y ep nx (l.map UE.u) id off zs).c = 5) := by show _ = _; rw [HCo2.out, if_pos (by rw [HPn.out, HL.out.2.2.1]; omega)]
    have HBw : Hid (Below w.heap.size w y3) := (HX.out _ HC3.out).2.2.2.2.1
    clear HX HC3
    go_wp2_with fail
    go_ret
    exact ⟨ret_int HRs.out.symm, HBw.out⟩
  rw [decide_eq_true hroom]
  have HRs : Hid ((putA X Y ep nx (l.map UE.u) id off zs).c = 0) := by show _ = _; rw [HCo2.out, if_neg (by rw [HPn.out, HL.out.2.2.1]; omega)]
  have HBw : Hid (Below w.heap.size w y3) := (HX.out _ HC3.out).2.2.2.2.1
  clear HX HC3
  go_wp2_with fail
  go_ret
  exact ⟨ret_int HRs.out.symm, HBw.out⟩

end Go.Proofs.YtammmecddnafaaaGreatDoor

namespace Go.Proofs.YtammmecddnafaaaGreatDoor
open Go.RowKit
set_option linter.unusedVariables false

set_option maxRecDepth 10000 in
set_option maxHeartbeats 3200000 in
theorem implPutUp_any (a : Option Addr) (n ca : Nat) (X : List ByteArray) (a' : Option Addr) (n' ca' : Nat) (Y : List ByteArray) (ep nx : Int) (ua : Option Addr) (un uc lo : Nat) (l : List UE) (id : ByteArray) (off : Int) (da : Option Addr) (dl dc : Nat) (zs : List Int) (w : World) (h1 : Strs w a n X) (h2 : Strs w a' n' Y) (hn : n ≤ 1048576) (hn' : n' ≤ 1048576) (hzx : ∀ x ∈ X, x.size ≤ 1048576) (hu : UpRow w lo (.slice ua un uc) l) (hun : un = l.length) (hul : un ≤ 1048576) (hz : ∀ e ∈ l, e.n ≤ 1099511627776) (hid : id.size ≤ maxLen) (hsd : Seg w da dl zs) (hdc : dl ≤ dc) (hdl : dl ≤ maxLen) (hsl : SlOk a n ca) (ht : RecT w) (he : ErrN w) :
    Calls Tryz.prog 16 #[.agg #[.slice a n ca, .slice a' n' ca', .int .i64 ep, .int .i64 nx, .slice ua un uc], .string id, .int .i64 off, .slice da dl dc] w fun e w' => WAns w.heap.size Y ep (putA X Y ep nx (l.map UE.u) id off zs) e w' ∧ Below w.heap.size w w' := by
  have hmm : maxLen < 9223372036854775808 := by decide
  obtain ⟨W2, hW2⟩ : ∃ W2, (w.alloc (.cells #[.slice a n ca, .slice a' n' ca', .int .i64 ep, .int .i64 nx, .slice ua un uc] 32)).alloc (.cells #[.slice none 0 0, .slice none 0 0, .int .i64 0, .int .i64 0, .slice none 0 0] 32) = W2 := ⟨_, rfl⟩
  have HE : Hid ((w.alloc (.cells #[.slice a n ca, .slice a' n' ca', .int .i64 ep, .int .i64 nx, .slice ua un uc] 32)).alloc (.cells #[.slice none 0 0, .slice none 0 0, .int .i64 0, .int .i64 0, .slice none 0 0] 32) = W2) := hW2
  have HB2 : Hid (Below w.heap.size w W2) := by show Below _ _ _; rw [← hW2]; exact ((Below.refl _ _).alloc (Nat.le_refl _) _).alloc (by simp) _
  have q1 : BoxN W2 w.heap.size 32 [.slice a n ca, .slice a' n' ca', .int .i64 ep, .int .i64 nx, .slice ua un uc] := by rw [← hW2]; exact (BoxN.new _ _ _).alloc _
  have q2 : BoxN W2 (w.heap.size + 1) 32 [.slice none 0 0, .slice none 0 0, .int .i64 0, .int .i64 0, .slice none 0 0] := by
    rw [← hW2]
    have := BoxN.new (w.alloc (.cells #[.slice a n ca, .slice a' n' ca', .int .i64 ep, .int .i64 nx, .slice ua un uc] 32)) 32 [.slice none 0 0, .slice none 0 0, .int .i64 0, .int .i64 0, .slice none 0 0]
    rwa [World.size_alloc] at this
  have HQ : Hid (∀ W, Below W2.heap.size W2 W → BoxN W w.heap.size 32 [.slice a n ca, .slice a' n' ca', .int .i64 ep, .int .i64 nx, .slice ua un uc] ∧ BoxN W (w.heap.size + 1) 32 [.slice none 0 0, .slice none 0 0, .int .i64 0, .int .i64 0, .slice none 0 0]) := fun W h => ⟨q1.stays h, q2.stays h⟩
  have HX : Hid (∀ W, Below W2.heap.size W2 W → Strs W a n X ∧ Strs W a' n' Y ∧ UpRow W lo (.slice ua un uc) l ∧ RecT W ∧ ErrN W ∧ Seg W da dl zs) := fun W h => by
    have hw := HB2.out.trans (h.mono HB2.out.size)
    exact ⟨h1.below hw, h2.below hw, hu.stays hw, ht.below hw, he.below hw, hsd.below hw⟩
  have HL : Hid (un = l.length ∧ (∀ e ∈ l, e.n ≤ 1099511627776) ∧ (∀ x ∈ X, x.size ≤ 1048576) ∧ X.length = n ∧ zs.length = dl) := ⟨hun, hz, hzx, h1.1, hsd.1⟩
  have hs2 : w.heap.size + 1 < W2.heap.size := q2.lt
  clear hW2 q1 q2 h1 h2 hu hun hz hzx ht he hsd
  have HA0 : Hid (Below W2.heap.size W2 W2) := Below.refl _ _
  obtain ⟨c0, c1, c2, c3, c4⟩ := (show _ ∧ _ ∧ _ ∧ _ ∧ _ from ⟨(HQ.out _ HA0.out).1.cell 0 rfl, (HQ.out _ HA0.out).1.cell 1 rfl, (HQ.out _ HA0.out).1.cell 2 rfl, (HQ.out _ HA0.out).1.cell 3 rfl, (HQ.out _ HA0.out).1.cell 4 rfl⟩)
  go_enter Tryz.func16, Tryz.ntmps16
  go_upto_region 1 with fail
  rw [HE.out]
  clear HE
  go_wp2_with fail
  refine (implPutC_any a n ca X a' n' ca' Y ep nx ua un uc lo l id off da dl dc zs W2 (HX.out _ HA0.out).1 (HX.out _ HA0.out).2.1 hn hn' HL.out.2.2.1 (HX.out _ HA0.out).2.2.1 HL.out.1 hul hid (HX.out _ HA0.out).2.2.2.2.2 hdc hdl hsl (HX.out _ HA0.out).2.2.2.1 (HX.out _ HA0.out).2.2.2.2.1).mono ?_
  rintro _ y1 ⟨rfl, hb1⟩
  have HC1 : Hid (Below W2.heap.size W2 y1) := hb1
  clear hb1 c0 c1 c2 c3 c4
  obtain ⟨cc, hcc⟩ : ∃ cc, (putA X Y ep nx (l.map UE.u) id off zs).c = cc := ⟨_, rfl⟩
  rw [hcc]
  obtain ⟨c0, c1, c2, c3, c4⟩ := (show _ ∧ _ ∧ _ ∧ _ ∧ _ from ⟨(HQ.out _ HC1.out).1.cell 0 rfl, (HQ.out _ HC1.out).1.cell 1 rfl, (HQ.out _ HC1.out).1.cell 2 rfl, (HQ.out _ HC1.out).1.cell 3 rfl, (HQ.out _ HC1.out).1.cell 4 rfl⟩)
  by_cases h0 : cc = 0
  case neg =>
    have HRs : Hid (putA X Y ep nx (l.map UE.u) id off zs = ⟨X, nx, l.map UE.u, cc⟩) := by
      show _ = _
      have h9 : (putA X Y ep nx (l.map UE.u) id off zs).c ≠ 0 := by rw [hcc]; exact h0
      rw [← hcc]
      exact putA_no h9
    have hd0 : (cc != 0) = true := by simpa using h0
    clear hcc h0
    go_wp2_with fail
    refine (implScopy_any a n ca X a' n' ca' Y ep nx ua un uc lo l y1 (HX.out _ HC1.out).1 (HX.out _ HC1.out).2.1 hn hn' (HX.out _ HC1.out).2.2.1 HL.out.1 hul HL.out.2.1).mono ?_
    rintro _ y2 ⟨⟨v, rfl, hv⟩, hb2⟩
    obtain ⟨b, cb, b', cb', va, vc, l', rfl, hs2', hm2⟩ := hv.get
    have HC2 : Hid (Below W2.heap.size W2 y2) := HC1.out.trans (hb2.mono HC1.out.size)
    have HSt : Hid (StoAt y2 W2.heap.size b X.length cb X b' Y.length cb' Y va (l.map UE.u).length vc l' ∧ l'.map UE.u = l.map UE.u) := ⟨hs2'.low HC1.out.size, hm2⟩
    have HBw : Hid (Below w.heap.size w y2) := HB2.out.trans (HC2.out.mono HB2.out.size)
    obtain ⟨K, hK⟩ : ∃ K, (l.map UE.u).length = K := ⟨_, rfl⟩
    rw [hK] at HSt ⊢
    obtain ⟨r0, r1, r2, r3, r4⟩ := (show _ ∧ _ ∧ _ ∧ _ ∧ _ from ⟨(HQ.out _ HC2.out).2.cell 0 rfl, (HQ.out _ HC2.out).2.cell 1 rfl, (HQ.out _ HC2.out).2.cell 2 rfl, (HQ.out _ HC2.out).2.cell 3 rfl, (HQ.out _ HC2.out).2.cell 4 rfl⟩)
    obtain ⟨f0, f1, f2, f3, f4⟩ := (show _ ∧ _ ∧ _ ∧ _ ∧ _ from ⟨(HQ.out _ HC2.out).2.frozen 0, (HQ.out _ HC2.out).2.frozen 1, (HQ.out _ HC2.out).2.frozen 2, (HQ.out _ HC2.out).2.frozen 3, (HQ.out _ HC2.out).2.frozen 4⟩)
    clear hv hs2' hm2 hb2 HQ HX HC1 HC2 hK c0 c1 c2 c3 c4
    go_wp2_with fail
    refine bodyPost_ret (v := .tuple #[.agg #[.slice b X.length cb, .slice b' Y.length cb', .int .i64 ep, .int .i64 nx, .slice va K vc], .int .i64 cc]) (by simp [results, Tryz.f16, go_sem, r0, r1, r2, r3, r4]) rfl ?_
    refine ⟨?_, ?_⟩
    · rw [WAns, HRs.out]
      exact ⟨_, rfl, b, X.length, cb, b', Y.length, cb', va, K, vc, l', rfl, (((((HSt.out.1.setLow (by omega) _).setLow (by omega) _).setLow (by omega) _).setLow (by omega) _).setLow (by omega) _).low (by omega), HSt.out.2⟩
    · exact ((((HBw.out.setCell (by dsimp only; omega) _).setCell (by dsimp only; omega) _).setCell (by dsimp only; omega) _).setCell (by dsimp only; omega) _).setCell (by dsimp only; omega) _
  subst h0
  obtain ⟨hso, hidb, hlz, k, u, hat, hus, hdn, hof, hwt, hroom, hfo, hmod⟩ := putA_yes hcc
  have hdl1 : 1 ≤ dl ∧ dl ≤ 400 := by have := HL.out.2.2.2.2; omega
  obtain ⟨us', hus'⟩ : ∃ us', putU (l.map UE.u) k u zs (pcs zs.length) = us' := ⟨_, rfl⟩
  obtain ⟨Pn, hPn⟩ : ∃ Pn, pcs dl = Pn := ⟨_, rfl⟩
  have hPz : pcs zs.length = Pn := by rw [HL.out.2.2.2.2]; exact hPn
  rw [hus'] at hfo hmod
  rw [hPz] at hmod hroom
  have hwu := hso.wants u (List.mem_of_getElem? hus)
  have hofb : 0 ≤ off ∧ off ≤ 1000000000 := by omega
  have HRs : Hid (putA X Y ep nx (l.map UE.u) id off zs = ⟨wroteX X ep nx.toNat (dataRs id off zs), nx + (Pn : Int), us', 0⟩) := hmod
  have HSo : Hid (SOk X Y ep nx (l.map UE.u)) := hso
  have HKk : Hid ((∀ r ∈ dataRs id off zs, idB r.id.data.toList = true ∧ kindB r.k r.n r.zs.length = true ∧ ∀ x ∈ r.zs, 0 ≤ x ∧ x ≤ 255) ∧ (dataRs id off zs).foldlM oneU (l.map UE.u) = some us' ∧ nx + (Pn : Int) ≤ (X.length : Int)) := ⟨dataRs_ok hidb hofb.1 (by omega) (HX.out _ HC1.out).2.2.2.2.2.2.1, hfo, hroom⟩
  have HNn : Hid (0 ≤ nx ∧ nx ≤ 200) := by show _ ∧ _; have := hso.nums; omega
  clear hcc hso hidb hlz hat hus hdn hof hwt hroom hfo hmod hus' hPz hwu
  obtain ⟨db, do_, hda⟩ : ∃ db do_, da = some ⟨db, do_, none⟩ := by
    rcases (HX.out _ HC1.out).2.2.2.2.2.2.2 with h | ⟨db, do_, h, _⟩
    · omega
    · exact ⟨db, do_, h⟩
  subst hda
  have HBd : Hid (Below W2.heap.size W2 y1.drew) := HC1.out.drew
  have HDr : Hid (Calls Tryz.prog 44 #[.string id, .int .i64 off, .slice (some ⟨db, do_, none⟩) dl dc] y1.drew fun e w' => (∃ ra c rl, e = .returned (.slice ra (pcs dl) c) ∧ RcsI w' ra (pcs dl) rl ∧ rl.map RE.r = dataRs id off zs) ∧ Below y1.drew.heap.size y1.drew w') := implDataRs_any id off db do_ dl dc zs y1.drew (HX.out _ HBd.out).2.2.2.2.2 hdc hdl1.2 hdl1.1 hofb
  rw [hPn] at HDr
  have HWr : Hid (∀ (ra : Option Addr) (rc : Nat) (rl : List RE) (y2 : World), Below W2.heap.size W2 y2 → RcsI y2 ra Pn rl → rl.map RE.r = dataRs id off zs → Calls Tryz.prog 36 #[.agg #[.slice a n ca, .slice a' n' ca', .int .i64 ep, .int .i64 nx, .slice ua un uc], .slice ra Pn rc] y2 fun e w' => (∃ v, e = .returned v ∧ AnsS y2.heap.size (wroteX X ep nx.toNat (dataRs id off zs)) Y ep (nx + (Pn : Int)) us' v w') ∧ Below y2.heap.size y2 w') := fun ra rc rl y2 hy hr hrl => by
    have h := implWritten_any a n ca X a' n' ca' Y ep nx ua un uc lo l ra Pn rc rl us' y2 (HX.out _ hy).1 (HX.out _ hy).2.1 hn hn' HL.out.2.2.1 (HX.out _ hy).2.2.1 HL.out.1 hul HL.out.2.1 (HX.out _ hy).2.2.2.1 (HX.out _ hy).2.2.2.2.1 hr HSo.out (by rw [hrl]; exact HKk.out.1) HKk.out.2.2 (by rw [hrl]; exact HKk.out.2.1)
    rw [hrl] at h
    exact h
  obtain ⟨NN, hNN⟩ : ∃ NN, (wroteX X ep nx.toNat (dataRs id off zs)).length = NN := ⟨_, rfl⟩
  obtain ⟨K, hK⟩ : ∃ K, us'.length = K := ⟨_, rfl⟩
  have HNN : Hid ((wroteX X ep nx.toNat (dataRs id off zs)).length = NN ∧ us'.length = K) := ⟨hNN, hK⟩
  have hneB : w.heap.size ≠ w.heap.size + 1 := by omega
  clear hPn hNN hK
  go_upto_region 4 with fail
  go_region_held3 (fun W => W.cell? ⟨w.heap.size, 0, none⟩ = some (.slice a n ca) ∧ W.cell? ⟨w.heap.size, 1, none⟩ = some (.slice a' n' ca') ∧ W.cell? ⟨w.heap.size, 2, none⟩ = some (.int .i64 ep) ∧ W.cell? ⟨w.heap.size, 3, none⟩ = some (.int .i64 nx) ∧ W.cell? ⟨w.heap.size, 4, none⟩ = some (.slice ua un uc)) (first | with_reducible exact ⟨e0, e1, e2, e3, e4⟩ | with_reducible exact ⟨c0, c1, c2, c3, c4⟩ | with_reducible exact ⟨cellD_kept hneB (cellD_kept hneB (cellD_kept hneB (cellD_kept hneB (cellD_kept hneB e0)))), cellD_kept hneB (cellD_kept hneB (cellD_kept hneB (cellD_kept hneB (cellD_kept hneB e1)))), cellD_kept hneB (cellD_kept hneB (cellD_kept hneB (cellD_kept hneB (cellD_kept hneB e2)))), cellD_kept hneB (cellD_kept hneB (cellD_kept hneB (cellD_kept hneB (cellD_kept hneB e3)))), cellD_kept hneB (cellD_kept hneB (cellD_kept hneB (cellD_kept hneB (cellD_kept hneB e4))))⟩ | exact ⟨c0, c1, c2, c3, c4⟩) (first
    | (go_at_call 44; refine HDr.out.mono ?_; rintro _ y2 ⟨⟨ra, rc, rl, rfl, hrr, hrl⟩, hb2⟩
       have hB2 : Below W2.heap.size W2 y2 := HBd.out.trans (hb2.mono HBd.out.size)
       have HRr : Hid (RcsI y2 ra Pn rl ∧ rl.map RE.r = dataRs id off zs) := ⟨hrr, hrl⟩
       clear hrr hrl
       have e0 := (HQ.out _ hB2).1.cell 0 rfl
       have e1 := (HQ.out _ hB2).1.cell 1 rfl
       have e2 := (HQ.out _ hB2).1.cell 2 rfl
       have e3 := (HQ.out _ hB2).1.cell 3 rfl
       have e4 := (HQ.out _ hB2).1.cell 4 rfl)
    | (go_at_call 36; refine (HWr.out ra rc rl y2 hB2 HRr.out.1 HRr.out.2).mono ?_; rintro _ y3 ⟨⟨v, rfl, hv⟩, hb3⟩
       obtain ⟨b, cb, b', cb', va, vc, l', rfl, hs3, hm3⟩ := hv.get
       rw [HNN.out.1, HNN.out.2] at hs3 ⊢
       have hB3 : Below W2.heap.size W2 y3 := hB2.trans (hb3.mono hB2.size)
       have e0 := (HQ.out _ hB3).1.cell 0 rfl
       have e1 := (HQ.out _ hB3).1.cell 1 rfl
       have e2 := (HQ.out _ hB3).1.cell 2 rfl
       have e3 := (HQ.out _ hB3).1.cell 3 rfl
       have e4 := (HQ.out _ hB3).1.cell 4 rfl
       have r0 := (HQ.out _ hB3).2.cell 0 rfl
       have r1 := (HQ.out _ hB3).2.cell 1 rfl
       have r2 := (HQ.out _ hB3).2.cell 2 rfl
       have r3 := (HQ.out _ hB3).2.cell 3 rfl
       have r4 := (HQ.out _ hB3).2.cell 4 rfl
       have f0 := (HQ.out _ hB3).2.frozen 0
       have f1 := (HQ.out _ hB3).2.frozen 1
       have f2 := (HQ.out _ hB3).2.frozen 2
       have f3 := (HQ.out _ hB3).2.frozen 3
       have f4 := (HQ.out _ hB3).2.frozen 4)
    | fail)
  have HSt : Hid (StoAt y3 W2.heap.size b NN cb (wroteX X ep nx.toNat (dataRs id off zs)) b' Y.length cb' Y va K vc l' ∧ l'.map UE.u = us') := ⟨hs3.low hB2.size, hm3⟩
  have HBw : Hid (Below w.heap.size w y3) := HB2.out.trans (hB3.mono HB2.out.size)
  clear hv hs3 hm3 hb2 hb3 hB2 hB3 HQ HX HC1 HBd HDr HWr HRr e0 e1 e2 e3 e4 c0 c1 c2 c3 c4
  go_wp2_with fail
  refine bodyPost_ret (v := .tuple #[.agg #[.slice b NN cb, .slice b' Y.length cb', .int .i64 ep, .int .i64 (nx + (Pn : Int)), .slice va K vc], .int .i64 0]) (by simp [results, Tryz.f16, go_sem, r0, r1, r2, r3, r4]) rfl ?_
  refine ⟨?_, ?_⟩
  · rw [WAns, HRs.out]
    exact ⟨_, rfl, b, NN, cb, b', Y.length, cb', va, K, vc, l', rfl, (((((HSt.out.1.setLow (by omega) _).setLow (by omega) _).setLow (by omega) _).setLow (by omega) _).setLow (by omega) _).low (by omega), HSt.out.2⟩
  · exact ((((HBw.out.setCell (by dsimp only; omega) _).setCell (by dsimp only; omega) _).setCell (by dsimp only; omega) _).setCell (by dsimp only; omega) _).setCell (by dsimp only; omega) _

end Go.Proofs.YtammmecddnafaaaGreatDoor

namespace Go.Proofs.YtammmecddnafaaaGreatDoor
open Go.RowKit
set_option linter.unusedVariables false

set_option maxRecDepth 10000 in
set_option maxHeartbeats 6400000 in
theorem specPutUp_any (a : Option Addr) (n ca : Nat) (X : List ByteArray) (a' : Option Addr) (n' ca' : Nat) (Y : List ByteArray) (ep nx : Int) (ua : Option Addr) (un uc lo : Nat) (l : List UE) (id : ByteArray) (off : Int) (da : Option Addr) (dl dc : Nat) (zs : List Int) (w : World) (h1 : Strs w a n X) (h2 : Strs w a' n' Y) (hn : n ≤ 1048576) (hn' : n' ≤ 1048576) (hzx : ∀ x ∈ X, x.size ≤ 1048576) (hu : UpRow w lo (.slice ua un uc) l) (hun : un = l.length) (hul : un ≤ 1048576) (hz : ∀ e ∈ l, e.n ≤ 1099511627776) (hid : id.size ≤ maxLen) (hob : -9223372036854775808 ≤ off ∧ off ≤ 9223372036854775807) (hsd : Seg w da dl zs) (hdc : dl ≤ dc) (hdl : dl ≤ maxLen) :
    Calls Tryz.prog 14 #[.agg #[.slice a n ca, .slice a' n' ca', .int .i64 ep, .int .i64 nx, .slice ua un uc], .string id, .int .i64 off, .slice da dl dc] w fun e w' => WAns w.heap.size Y ep (putA X Y ep nx (l.map UE.u) id off zs) e w' ∧ Below w.heap.size w w' := by
  have hmm : maxLen < 9223372036854775808 := by decide
  obtain ⟨W2, hW2⟩ : ∃ W2, (w.alloc (.cells #[.slice a n ca, .slice a' n' ca', .int .i64 ep, .int .i64 nx, .slice ua un uc] 32)).alloc (.cells #[.slice none 0 0, .slice none 0 0, .int .i64 0, .int .i64 0, .slice none 0 0] 32) = W2 := ⟨_, rfl⟩
  have HE : Hid ((w.alloc (.cells #[.slice a n ca, .slice a' n' ca', .int .i64 ep, .int .i64 nx, .slice ua un uc] 32)).alloc (.cells #[.slice none 0 0, .slice none 0 0, .int .i64 0, .int .i64 0, .slice none 0 0] 32) = W2) := hW2
  have HB2 : Hid (Below w.heap.size w W2) := by show Below _ _ _; rw [← hW2]; exact ((Below.refl _ _).alloc (Nat.le_refl _) _).alloc (by simp) _
  have q1 : BoxN W2 w.heap.size 32 [.slice a n ca, .slice a' n' ca', .int .i64 ep, .int .i64 nx, .slice ua un uc] := by rw [← hW2]; exact (BoxN.new _ _ _).alloc _
  have q2 : BoxN W2 (w.heap.size + 1) 32 [.slice none 0 0, .slice none 0 0, .int .i64 0, .int .i64 0, .slice none 0 0] := by
    rw [← hW2]
    have := BoxN.new (w.alloc (.cells #[.slice a n ca, .slice a' n' ca', .int .i64 ep, .int .i64 nx, .slice ua un uc] 32)) 32 [.slice none 0 0, .slice none 0 0, .int .i64 0, .int .i64 0, .slice none 0 0]
    rwa [World.size_alloc] at this
  have HQ : Hid (∀ W, Below W2.heap.size W2 W → BoxN W w.heap.size 32 [.slice a n ca, .slice a' n' ca', .int .i64 ep, .int .i64 nx, .slice ua un uc] ∧ BoxN W (w.heap.size + 1) 32 [.slice none 0 0, .slice none 0 0, .int .i64 0, .int .i64 0, .slice none 0 0]) := fun W h => ⟨q1.stays h, q2.stays h⟩
  have HX : Hid (∀ W, Below W2.heap.size W2 W → Strs W a n X ∧ Strs W a' n' Y ∧ UpRow W lo (.slice ua un uc) l ∧ Seg W da dl zs) := fun W h => by
    have hw := HB2.out.trans (h.mono HB2.out.size)
    exact ⟨h1.below hw, h2.below hw, hu.stays hw, hsd.below hw⟩
  have HL : Hid (un = l.length ∧ (∀ e ∈ l, e.n ≤ 1099511627776) ∧ (∀ x ∈ X, x.size ≤ 1048576) ∧ X.length = n ∧ zs.length = dl) := ⟨hun, hz, hzx, h1.1, hsd.1⟩
  have hs2 : w.heap.size + 1 < W2.heap.size := q2.lt
  clear hW2 q1 q2 h1 h2 hu hun hz hzx hsd
  obtain ⟨c0, c1, c2, c3, c4⟩ := (show _ ∧ _ ∧ _ ∧ _ ∧ _ from ⟨(HQ.out _ (Below.refl _ _)).1.cell 0 rfl, (HQ.out _ (Below.refl _ _)).1.cell 1 rfl, (HQ.out _ (Below.refl _ _)).1.cell 2 rfl, (HQ.out _ (Below.refl _ _)).1.cell 3 rfl, (HQ.out _ (Below.refl _ _)).1.cell 4 rfl⟩)
  go_enter Tryz.func14, Tryz.ntmps14
  go_upto_region 1 with fail
  rw [HE.out]
  clear HE
  go_wp2_with fail
  refine (specScopy_any a n ca X a' n' ca' Y ep nx ua un uc lo l W2 (HX.out _ (Below.refl _ _)).1 (HX.out _ (Below.refl _ _)).2.1 hn hn' (HX.out _ (Below.refl _ _)).2.2.1 HL.out.1 hul HL.out.2.1).mono ?_
  rintro e y1 ⟨⟨v, rfl, hv⟩, hb1⟩
  obtain ⟨b, cb, b', cb', va, vc, l', rfl, hs1, hm1⟩ := hv.get
  rw [List.length_map, ← HL.out.1] at hs1 ⊢
  have HA1 : Hid (SAt (y1.alloc (.cells #[.slice b X.length cb, .slice b' Y.length cb', .int .i64 ep, .int .i64 nx, .slice va un vc] 32)) W2.heap.size y1.heap.size b X.length cb X b' Y.length cb' Y ep nx va un vc l') := SAt.new hs1 hb1.size
  have HC1 : Hid (Below W2.heap.size W2 (y1.alloc (.cells #[.slice b X.length cb, .slice b' Y.length cb', .int .i64 ep, .int .i64 nx, .slice va un vc] 32))) := hb1.alloc hb1.size _
  have HM : Hid (l'.map UE.u = l.map UE.u) := hm1
  have HZ' : Hid (∀ e ∈ l', e.n ≤ 1099511627776) := sizes_same hm1 hs1.ups (HX.out _ (Below.refl _ _)).2.2.1 HL.out.2.1
  clear hv hs1 hb1 hm1 c0 c1 c2 c3 c4
  obtain ⟨d0, d1, d2, d3, d4⟩ := (show _ ∧ _ ∧ _ ∧ _ ∧ _ from ⟨(HQ.out _ HC1.out).1.cell 0 rfl, (HQ.out _ HC1.out).1.cell 1 rfl, (HQ.out _ HC1.out).1.cell 2 rfl, (HQ.out _ HC1.out).1.cell 3 rfl, (HQ.out _ HC1.out).1.cell 4 rfl⟩)
  go_wp2_with fail
  obtain ⟨w1, hw1⟩ : ∃ w1, y1.alloc (.cells #[.slice b X.length cb, .slice b' Y.length cb', .int .i64 ep, .int .i64 nx, .slice va un vc] 32) = w1 := ⟨_, rfl⟩
  rw [hw1] at HA1 HC1 ⊢
  clear hw1 d0 d1 d2 d3 d4
  have hlo : W2.heap.size ≤ y1.heap.size := HA1.out.lob
  generalize y1.heap.size = bo at *
  refine (specSok_any a n ca X a' n' ca' Y ep nx ua un uc lo l w1 (HX.out _ HC1.out).1 (HX.out _ HC1.out).2.1 hn hn' HL.out.2.2.1 (HX.out _ HC1.out).2.2.1 HL.out.1 hul).mono ?_
  rintro e y2 ⟨⟨ok, rfl, hok⟩, hb2⟩
  have hdb : ok = decB (SOk X Y ep nx (l.map UE.u)) := decB_iff hok
  have HA2 : Hid (SAt y2 W2.heap.size bo b X.length cb X b' Y.length cb' Y ep nx va un vc l') := HA1.out.stays hb2
  have HC2 : Hid (Below W2.heap.size W2 y2) := HC1.out.trans (hb2.mono HC1.out.size)
  clear hb2 HA1 HC1
  cases ok with
  | false =>
    have hno : ¬ decB (SOk X Y ep nx (l.map UE.u)) = true := by rw [← hdb]; simp
    clear hok hdb
    have HRs : Hid (putA X Y ep nx (l.map UE.u) id off zs = ⟨X, nx, l.map UE.u, 1⟩) := if_neg (fun h => hno h.1)
    have HBw : Hid (Below w.heap.size w y2) := HB2.out.trans (HC2.out.mono HB2.out.size)
    obtain ⟨r0, r1, r2, r3, r4⟩ := (show _ ∧ _ ∧ _ ∧ _ ∧ _ from ⟨(HQ.out _ HC2.out).2.cell 0 rfl, (HQ.out _ HC2.out).2.cell 1 rfl, (HQ.out _ HC2.out).2.cell 2 rfl, (HQ.out _ HC2.out).2.cell 3 rfl, (HQ.out _ HC2.out).2.cell 4 rfl⟩)
    obtain ⟨f0, f1, f2, f3, f4⟩ := (show _ ∧ _ ∧ _ ∧ _ ∧ _ from ⟨(HQ.out _ HC2.out).2.frozen 0, (HQ.out _ HC2.out).2.frozen 1, (HQ.out _ HC2.out).2.frozen 2, (HQ.out _ HC2.out).2.frozen 3, (HQ.out _ HC2.out).2.frozen 4⟩)
    obtain ⟨o0, o1, o2, o3, o4⟩ := (show _ ∧ _ ∧ _ ∧ _ ∧ _ from ⟨HA2.out.box.cell 0 rfl, HA2.out.box.cell 1 rfl, HA2.out.box.cell 2 rfl, HA2.out.box.cell 3 rfl, HA2.out.box.cell 4 rfl⟩)
    have HSt : Hid (StoAt y2 W2.heap.size b X.length cb X b' Y.length cb' Y va un vc l') := HA2.out.sto
    clear HQ HX HC2 HA2
    go_wp2_with fail
    refine bodyPost_ret (v := .tuple #[.agg #[.slice b X.length cb, .slice b' Y.length cb', .int .i64 ep, .int .i64 nx, .slice va un vc], .int .i64 1]) (by simp [results, Tryz.f14, go_sem, r0, r1, r2, r3, r4]) rfl ?_
    refine ⟨?_, ?_⟩
    · rw [WAns, HRs.out]
      exact ⟨_, rfl, b, X.length, cb, b', Y.length, cb', va, un, vc, l', rfl, (((((HSt.out.setLow (by omega) _).setLow (by omega) _).setLow (by omega) _).setLow (by omega) _).setLow (by omega) _).low (by omega), HM.out⟩
    · exact ((((HBw.out.setCell (by dsimp only; omega) _).setCell (by dsimp only; omega) _).setCell (by dsimp only; omega) _).setCell (by dsimp only; omega) _).setCell (by dsimp only; omega) _
  | true =>
  have HSo : Hid (SOk X Y ep nx (l.map UE.u)) := hok.1 rfl
  have HDb : Hid (decB (SOk X Y ep nx (l.map UE.u)) = true) := hdb.symm
  clear hok hdb
  go_wp2_with fail
  refine (specId_any id y2 (by omega)).mono ?_
  rintro _ y2 ⟨rfl, rfl⟩
  cases hidB : idB id.data.toList with
  | false =>
    have hno : ¬ idB id.data.toList = true := by rw [hidB]; simp
    clear hidB
    have HRs : Hid (putA X Y ep nx (l.map UE.u) id off zs = ⟨X, nx, l.map UE.u, 1⟩) := if_neg (fun h => hno h.2.1)
    have HBw : Hid (Below w.heap.size w y2) := HB2.out.trans (HC2.out.mono HB2.out.size)
    obtain ⟨r0, r1, r2, r3, r4⟩ := (show _ ∧ _ ∧ _ ∧ _ ∧ _ from ⟨(HQ.out _ HC2.out).2.cell 0 rfl, (HQ.out _ HC2.out).2.cell 1 rfl, (HQ.out _ HC2.out).2.cell 2 rfl, (HQ.out _ HC2.out).2.cell 3 rfl, (HQ.out _ HC2.out).2.cell 4 rfl⟩)
    obtain ⟨f0, f1, f2, f3, f4⟩ := (show _ ∧ _ ∧ _ ∧ _ ∧ _ from ⟨(HQ.out _ HC2.out).2.frozen 0, (HQ.out _ HC2.out).2.frozen 1, (HQ.out _ HC2.out).2.frozen 2, (HQ.out _ HC2.out).2.frozen 3, (HQ.out _ HC2.out).2.frozen 4⟩)
    obtain ⟨o0, o1, o2, o3, o4⟩ := (show _ ∧ _ ∧ _ ∧ _ ∧ _ from ⟨HA2.out.box.cell 0 rfl, HA2.out.box.cell 1 rfl, HA2.out.box.cell 2 rfl, HA2.out.box.cell 3 rfl, HA2.out.box.cell 4 rfl⟩)
    have HSt : Hid (StoAt y2 W2.heap.size b X.length cb X b' Y.length cb' Y va un vc l') := HA2.out.sto
    clear HQ HX HC2 HA2
    go_wp2_with fail
    refine bodyPost_ret (v := .tuple #[.agg #[.slice b X.length cb, .slice b' Y.length cb', .int .i64 ep, .int .i64 nx, .slice va un vc], .int .i64 1]) (by simp [results, Tryz.f14, go_sem, r0, r1, r2, r3, r4]) rfl ?_
    refine ⟨?_, ?_⟩
    · rw [WAns, HRs.out]
      exact ⟨_, rfl, b, X.length, cb, b', Y.length, cb', va, un, vc, l', rfl, (((((HSt.out.setLow (by omega) _).setLow (by omega) _).setLow (by omega) _).setLow (by omega) _).setLow (by omega) _).low (by omega), HM.out⟩
    · exact ((((HBw.out.setCell (by dsimp only; omega) _).setCell (by dsimp only; omega) _).setCell (by dsimp only; omega) _).setCell (by dsimp only; omega) _).setCell (by dsimp only; omega) _
  | true =>
  have HId : Hid (idB id.data.toList = true) := hidB
  clear hidB
  go_wp2_with fail
  refine (l1In_any (dl : Int) 1 400 y2).mono ?_
  rintro _ y2 ⟨rfl, rfl⟩
  by_cases hlen : (1 : Int) ≤ (dl : Int) ∧ (dl : Int) ≤ 400
  case neg =>
    rw [decide_eq_false hlen]
    have HRs : Hid (putA X Y ep nx (l.map UE.u) id off zs = ⟨X, nx, l.map UE.u, 1⟩) := if_neg (fun h => hlen (by have := HL.out.2.2.2.2; have := h.2.2; omega))
    have HBw : Hid (Below w.heap.size w y2) := HB2.out.trans (HC2.out.mono HB2.out.size)
    obtain ⟨r0, r1, r2, r3, r4⟩ := (show _ ∧ _ ∧ _ ∧ _ ∧ _ from ⟨(HQ.out _ HC2.out).2.cell 0 rfl, (HQ.out _ HC2.out).2.cell 1 rfl, (HQ.out _ HC2.out).2.cell 2 rfl, (HQ.out _ HC2.out).2.cell 3 rfl, (HQ.out _ HC2.out).2.cell 4 rfl⟩)
    obtain ⟨f0, f1, f2, f3, f4⟩ := (show _ ∧ _ ∧ _ ∧ _ ∧ _ from ⟨(HQ.out _ HC2.out).2.frozen 0, (HQ.out _ HC2.out).2.frozen 1, (HQ.out _ HC2.out).2.frozen 2, (HQ.out _ HC2.out).2.frozen 3, (HQ.out _ HC2.out).2.frozen 4⟩)
    obtain ⟨o0, o1, o2, o3, o4⟩ := (show _ ∧ _ ∧ _ ∧ _ ∧ _ from ⟨HA2.out.box.cell 0 rfl, HA2.out.box.cell 1 rfl, HA2.out.box.cell 2 rfl, HA2.out.box.cell 3 rfl, HA2.out.box.cell 4 rfl⟩)
    have HSt : Hid (StoAt y2 W2.heap.size b X.length cb X b' Y.length cb' Y va un vc l') := HA2.out.sto
    clear HQ HX HC2 HA2
    go_wp2_with fail
    refine bodyPost_ret (v := .tuple #[.agg #[.slice b X.length cb, .slice b' Y.length cb', .int .i64 ep, .int .i64 nx, .slice va un vc], .int .i64 1]) (by simp [results, Tryz.f14, go_sem, r0, r1, r2, r3, r4]) rfl ?_
    refine ⟨?_, ?_⟩
    · rw [WAns, HRs.out]
      exact ⟨_, rfl, b, X.length, cb, b', Y.length, cb', va, un, vc, l', rfl, (((((HSt.out.setLow (by omega) _).setLow (by omega) _).setLow (by omega) _).setLow (by omega) _).setLow (by omega) _).low (by omega), HM.out⟩
    · exact ((((HBw.out.setCell (by dsimp only; omega) _).setCell (by dsimp only; omega) _).setCell (by dsimp only; omega) _).setCell (by dsimp only; omega) _).setCell (by dsimp only; omega) _
  rw [decide_eq_true hlen]
  have HLn : Hid (1 ≤ zs.length ∧ zs.length ≤ 400) := by show _ ∧ _; have := HL.out.2.2.2.2; omega
  obtain ⟨hen, hn0, hnX, hX200⟩ := HSo.out.nums
  have hfew : un ≤ 10 := by have := HSo.out.few; rw [List.length_map, ← HL.out.1] at this; exact this
  obtain ⟨d0, d1, d2, d3, d4⟩ := (show _ ∧ _ ∧ _ ∧ _ ∧ _ from ⟨(HQ.out _ HC2.out).1.cell 0 rfl, (HQ.out _ HC2.out).1.cell 1 rfl, (HQ.out _ HC2.out).1.cell 2 rfl, (HQ.out _ HC2.out).1.cell 3 rfl, (HQ.out _ HC2.out).1.cell 4 rfl⟩)
  go_wp2_with fail
  refine (specAtU_any ua un uc lo id l y2 (HX.out _ HC2.out).2.2.1 HL.out.1 (by omega)).mono ?_
  rintro _ y2 ⟨rfl, rfl⟩
  clear d0 d1 d2 d3 d4
  cases hat : atU (l.map UE.u) id with
  | none =>
    have hki : atI (l.map UE.u) id = -1 := by rw [atI, hat]
    rw [hki]
    have HRs : Hid (putA X Y ep nx (l.map UE.u) id off zs = ⟨X, nx, l.map UE.u, 2⟩) := by show _ = _; rw [putA, if_pos ⟨HDb.out, HId.out, HLn.out⟩, hat]
    have HBw : Hid (Below w.heap.size w y2) := HB2.out.trans (HC2.out.mono HB2.out.size)
    obtain ⟨r0, r1, r2, r3, r4⟩ := (show _ ∧ _ ∧ _ ∧ _ ∧ _ from ⟨(HQ.out _ HC2.out).2.cell 0 rfl, (HQ.out _ HC2.out).2.cell 1 rfl, (HQ.out _ HC2.out).2.cell 2 rfl, (HQ.out _ HC2.out).2.cell 3 rfl, (HQ.out _ HC2.out).2.cell 4 rfl⟩)
    obtain ⟨f0, f1, f2, f3, f4⟩ := (show _ ∧ _ ∧ _ ∧ _ ∧ _ from ⟨(HQ.out _ HC2.out).2.frozen 0, (HQ.out _ HC2.out).2.frozen 1, (HQ.out _ HC2.out).2.frozen 2, (HQ.out _ HC2.out).2.frozen 3, (HQ.out _ HC2.out).2.frozen 4⟩)
    obtain ⟨o0, o1, o2, o3, o4⟩ := (show _ ∧ _ ∧ _ ∧ _ ∧ _ from ⟨HA2.out.box.cell 0 rfl, HA2.out.box.cell 1 rfl, HA2.out.box.cell 2 rfl, HA2.out.box.cell 3 rfl, HA2.out.box.cell 4 rfl⟩)
    have HSt : Hid (StoAt y2 W2.heap.size b X.length cb X b' Y.length cb' Y va un vc l') := HA2.out.sto
    clear HQ HX HC2 HA2
    go_wp2_with fail
    refine bodyPost_ret (v := .tuple #[.agg #[.slice b X.length cb, .slice b' Y.length cb', .int .i64 ep, .int .i64 nx, .slice va un vc], .int .i64 2]) (by simp [results, Tryz.f14, go_sem, r0, r1, r2, r3, r4]) rfl ?_
    refine ⟨?_, ?_⟩
    · rw [WAns, HRs.out]
      exact ⟨_, rfl, b, X.length, cb, b', Y.length, cb', va, un, vc, l', rfl, (((((HSt.out.setLow (by omega) _).setLow (by omega) _).setLow (by omega) _).setLow (by omega) _).setLow (by omega) _).low (by omega), HM.out⟩
    · exact ((((HBw.out.setCell (by dsimp only; omega) _).setCell (by dsimp only; omega) _).setCell (by dsimp only; omega) _).setCell (by dsimp only; omega) _).setCell (by dsimp only; omega) _
  | some k =>
  have hki : atI (l.map UE.u) id = (k : Int) := by rw [atI, hat]
  have hkl : k < l.length := by simpa using (atU_is hat).1
  have hk0 : ¬ (k : Int) < 0 := by omega
  have hk1 : (0 : Int) ≤ (k : Int) := by omega
  have hku : (k : Int) < (un : Int) := by have := HL.out.1; omega
  rw [hki]
  have hguk : (l.map UE.u)[k]? = some (l[k]).u := by rw [List.getElem?_map, List.getElem?_eq_getElem hkl]; rfl
  obtain ⟨g, hg, g0, g1, g2, g3, _⟩ := (HX.out _ HC2.out).2.2.1.at HL.out.1 hkl
  have hul4 := (l[k]).u.zs.length
  have HUz : Hid ((l[k]).u.zs.length = (l[k]).n ∧ (l[k]).u.zs.length ≤ 4800) := ⟨((HX.out _ HC2.out).2.2.1.2.1 _ (List.getElem_mem hkl)).seg.1, (fold_small HSo.out.1 HSo.out.2.2.1).2 _ (List.mem_map_of_mem (List.getElem_mem hkl))⟩
  have HWt : Hid (0 ≤ (l[k]).u.want ∧ (l[k]).u.want ≤ 1000000000) := HSo.out.wants _ (List.mem_map_of_mem (List.getElem_mem hkl))
  have HPa : Hid (∀ v : WA, (if (l[k]).u.done = true ∨ off ≠ ((l[k]).u.zs.length : Int) ∨ (l[k]).u.want < off + (zs.length : Int) then (⟨X, nx, l.map UE.u, 4⟩ : WA) else if (X.length : Int) - nx < (pcs zs.length : Int) then ⟨X, nx, l.map UE.u, 5⟩ else wroteA X ep nx (l.map UE.u) (dataRs id off zs)) = v → putA X Y ep nx (l.map UE.u) id off zs = v) := fun v h => by
    rw [putA, if_pos ⟨HDb.out, HId.out, HLn.out⟩, hat]
    dsimp only
    rw [hguk]
    exact h
  have HAt : Hid (atU (l.map UE.u) id = some k ∧ (l.map UE.u)[k]? = some (l[k]).u) := ⟨hat, hguk⟩
  subst hg
  generalize l[k] = x at *
  clear hat hguk hul4
  obtain ⟨Z, hZ⟩ : ∃ Z, x.u.zs.length = Z := ⟨_, rfl⟩
  have hxn : x.n = Z := by have := HUz.out.1; omega
  have hZb : Z ≤ 4800 := by have := HUz.out.2; omega
  rw [hZ] at HPa
  have HZe : Hid (x.u.zs.length = Z) := hZ
  rw [hxn] at g2
  clear hxn hZ HUz
  obtain ⟨y3, hy3⟩ : ∃ y3, y2.alloc (.cells #[.string x.u.id, .int .i64 x.u.want, .slice x.a Z x.c, .bool x.u.done] 69) = y3 := ⟨_, rfl⟩
  have HE3 : Hid (y2.alloc (.cells #[.string x.u.id, .int .i64 x.u.want, .slice x.a Z x.c, .bool x.u.done] 69) = y3) := hy3
  have hb3 : Below y2.heap.size y2 y3 := by rw [← hy3]; exact (Below.refl _ _).alloc (Nat.le_refl _) _
  have hv3 : BoxN y3 y2.heap.size 69 [.string x.u.id, .int .i64 x.u.want, .slice x.a Z x.c, .bool x.u.done] := by rw [← hy3]; exact BoxN.new _ _ _
  have e4 := (HQ.out _ HC2.out).1
  have u1 := hv3.cell 1 rfl
  have u2 := hv3.cell 2 rfl
  have u3 := hv3.cell 3 rfl
  have HA3 : Hid (SAt y3 W2.heap.size bo b X.length cb X b' Y.length cb' Y ep nx va un vc l') := HA2.out.stays hb3
  have HC3 : Hid (Below W2.heap.size W2 y3) := HC2.out.trans (hb3.mono HC2.out.size)
  clear hb3 HA2 HC2
  have d4 := e4.cell 4 rfl
  clear e4 hy3 hv3
  go_upto_region 8 with fail
  rw [HE3.out]
  clear HE3 g0 g1 g2 g3 d4
  cases hdone : x.u.done with
  | true =>
    rw [hdone] at u3
    have HRs : Hid (putA X Y ep nx (l.map UE.u) id off zs = ⟨X, nx, l.map UE.u, 4⟩) := HPa.out _ (if_pos (.inl hdone))
    have HBw : Hid (Below w.heap.size w y3) := HB2.out.trans (HC3.out.mono HB2.out.size)
    obtain ⟨r0, r1, r2, r3, r4⟩ := (show _ ∧ _ ∧ _ ∧ _ ∧ _ from ⟨(HQ.out _ HC3.out).2.cell 0 rfl, (HQ.out _ HC3.out).2.cell 1 rfl, (HQ.out _ HC3.out).2.cell 2 rfl, (HQ.out _ HC3.out).2.cell 3 rfl, (HQ.out _ HC3.out).2.cell 4 rfl⟩)
    obtain ⟨f0, f1, f2, f3, f4⟩ := (show _ ∧ _ ∧ _ ∧ _ ∧ _ from ⟨(HQ.out _ HC3.out).2.frozen 0, (HQ.out _ HC3.out).2.frozen 1, (HQ.out _ HC3.out).2.frozen 2, (HQ.out _ HC3.out).2.frozen 3, (HQ.out _ HC3.out).2.frozen 4⟩)
    obtain ⟨o0, o1, o2, o3, o4⟩ := (show _ ∧ _ ∧ _ ∧ _ ∧ _ from ⟨HA3.out.box.cell 0 rfl, HA3.out.box.cell 1 rfl, HA3.out.box.cell 2 rfl, HA3.out.box.cell 3 rfl, HA3.out.box.cell 4 rfl⟩)
    have HSt : Hid (StoAt y3 W2.heap.size b X.length cb X b' Y.length cb' Y va un vc l') := HA3.out.sto
    clear HQ HX HC3 HA3
    go_wp2_with fail
    refine bodyPost_ret (v := .tuple #[.agg #[.slice b X.length cb, .slice b' Y.length cb', .int .i64 ep, .int .i64 nx, .slice va un vc], .int .i64 4]) (by simp [results, Tryz.f14, go_sem, r0, r1, r2, r3, r4]) rfl ?_
    refine ⟨?_, ?_⟩
    · rw [WAns, HRs.out]
      exact ⟨_, rfl, b, X.length, cb, b', Y.length, cb', va, un, vc, l', rfl, (((((HSt.out.setLow (by omega) _).setLow (by omega) _).setLow (by omega) _).setLow (by omega) _).setLow (by omega) _).low (by omega), HM.out⟩
    · exact ((((HBw.out.setCell (by dsimp only; omega) _).setCell (by dsimp only; omega) _).setCell (by dsimp only; omega) _).setCell (by dsimp only; omega) _).setCell (by dsimp only; omega) _
  | false =>
  rw [hdone] at u3
  by_cases hoff : off = (Z : Int)
  case neg =>
    have hoffb : (off != (Z : Int)) = true := by simpa using hoff
    have HRs : Hid (putA X Y ep nx (l.map UE.u) id off zs = ⟨X, nx, l.map UE.u, 4⟩) := HPa.out _ (if_pos (.inr (.inl hoff)))
    have HBw : Hid (Below w.heap.size w y3) := HB2.out.trans (HC3.out.mono HB2.out.size)
    obtain ⟨r0, r1, r2, r3, r4⟩ := (show _ ∧ _ ∧ _ ∧ _ ∧ _ from ⟨(HQ.out _ HC3.out).2.cell 0 rfl, (HQ.out _ HC3.out).2.cell 1 rfl, (HQ.out _ HC3.out).2.cell 2 rfl, (HQ.out _ HC3.out).2.cell 3 rfl, (HQ.out _ HC3.out).2.cell 4 rfl⟩)
    obtain ⟨f0, f1, f2, f3, f4⟩ := (show _ ∧ _ ∧ _ ∧ _ ∧ _ from ⟨(HQ.out _ HC3.out).2.frozen 0, (HQ.out _ HC3.out).2.frozen 1, (HQ.out _ HC3.out).2.frozen 2, (HQ.out _ HC3.out).2.frozen 3, (HQ.out _ HC3.out).2.frozen 4⟩)
    obtain ⟨o0, o1, o2, o3, o4⟩ := (show _ ∧ _ ∧ _ ∧ _ ∧ _ from ⟨HA3.out.box.cell 0 rfl, HA3.out.box.cell 1 rfl, HA3.out.box.cell 2 rfl, HA3.out.box.cell 3 rfl, HA3.out.box.cell 4 rfl⟩)
    have HSt : Hid (StoAt y3 W2.heap.size b X.length cb X b' Y.length cb' Y va un vc l') := HA3.out.sto
    clear HQ HX HC3 HA3
    go_wp2_with fail
    refine bodyPost_ret (v := .tuple #[.agg #[.slice b X.length cb, .slice b' Y.length cb', .int .i64 ep, .int .i64 nx, .slice va un vc], .int .i64 4]) (by simp [results, Tryz.f14, go_sem, r0, r1, r2, r3, r4]) rfl ?_
    refine ⟨?_, ?_⟩
    · rw [WAns, HRs.out]
      exact ⟨_, rfl, b, X.length, cb, b', Y.length, cb', va, un, vc, l', rfl, (((((HSt.out.setLow (by omega) _).setLow (by omega) _).setLow (by omega) _).setLow (by omega) _).setLow (by omega) _).low (by omega), HM.out⟩
    · exact ((((HBw.out.setCell (by dsimp only; omega) _).setCell (by dsimp only; omega) _).setCell (by dsimp only; omega) _).setCell (by dsimp only; omega) _).setCell (by dsimp only; omega) _
  subst hoff
  have hoffb : ((Z : Int) != (Z : Int)) = false := by simp
  by_cases hbig : x.u.want < (Z : Int) + (dl : Int)
  · have hbigd : decide (x.u.want < (Z : Int) + (dl : Int)) = true := by simpa using hbig
    have hbigz : x.u.want < (Z : Int) + (zs.length : Int) := by rw [HL.out.2.2.2.2]; exact hbig
    have HRs : Hid (putA X Y ep nx (l.map UE.u) id (Z : Int) zs = ⟨X, nx, l.map UE.u, 4⟩) := HPa.out _ (if_pos (.inr (.inr hbigz)))
    have HBw : Hid (Below w.heap.size w y3) := HB2.out.trans (HC3.out.mono HB2.out.size)
    obtain ⟨r0, r1, r2, r3, r4⟩ := (show _ ∧ _ ∧ _ ∧ _ ∧ _ from ⟨(HQ.out _ HC3.out).2.cell 0 rfl, (HQ.out _ HC3.out).2.cell 1 rfl, (HQ.out _ HC3.out).2.cell 2 rfl, (HQ.out _ HC3.out).2.cell 3 rfl, (HQ.out _ HC3.out).2.cell 4 rfl⟩)
    obtain ⟨f0, f1, f2, f3, f4⟩ := (show _ ∧ _ ∧ _ ∧ _ ∧ _ from ⟨(HQ.out _ HC3.out).2.frozen 0, (HQ.out _ HC3.out).2.frozen 1, (HQ.out _ HC3.out).2.frozen 2, (HQ.out _ HC3.out).2.frozen 3, (HQ.out _ HC3.out).2.frozen 4⟩)
    obtain ⟨o0, o1, o2, o3, o4⟩ := (show _ ∧ _ ∧ _ ∧ _ ∧ _ from ⟨HA3.out.box.cell 0 rfl, HA3.out.box.cell 1 rfl, HA3.out.box.cell 2 rfl, HA3.out.box.cell 3 rfl, HA3.out.box.cell 4 rfl⟩)
    have HSt : Hid (StoAt y3 W2.heap.size b X.length cb X b' Y.length cb' Y va un vc l') := HA3.out.sto
    clear HQ HX HC3 HA3
    go_wp2_with fail
    refine bodyPost_ret (v := .tuple #[.agg #[.slice b X.length cb, .slice b' Y.length cb', .int .i64 ep, .int .i64 nx, .slice va un vc], .int .i64 4]) (by simp [results, Tryz.f14, go_sem, r0, r1, r2, r3, r4]) rfl ?_
    refine ⟨?_, ?_⟩
    · rw [WAns, HRs.out]
      exact ⟨_, rfl, b, X.length, cb, b', Y.length, cb', va, un, vc, l', rfl, (((((HSt.out.setLow (by omega) _).setLow (by omega) _).setLow (by omega) _).setLow (by omega) _).setLow (by omega) _).low (by omega), HM.out⟩
    · exact ((((HBw.out.setCell (by dsimp only; omega) _).setCell (by dsimp only; omega) _).setCell (by dsimp only; omega) _).setCell (by dsimp only; omega) _).setCell (by dsimp only; omega) _
  have hbigd : decide (x.u.want < (Z : Int) + (dl : Int)) = false := by simpa using hbig
  have HBg : Hid ((Z : Int) + (zs.length : Int) ≤ x.u.want) := by show _ ≤ _; rw [HL.out.2.2.2.2]; omega
  have HPb : Hid (∀ v : WA, (if (X.length : Int) - nx < (pcs zs.length : Int) then ⟨X, nx, l.map UE.u, 5⟩ else wroteA X ep nx (l.map UE.u) (dataRs id (Z : Int) zs)) = v → putA X Y ep nx (l.map UE.u) id (Z : Int) zs = v) := fun v h => HPa.out v (by rw [if_neg (by rw [hdone]; have := HBg.out; simp; omega)]; exact h)
  have HDn : Hid (x.u.done = false) := hdone
  clear HPa hbig
  obtain ⟨d0, d1, d2, d3, d4⟩ := (show _ ∧ _ ∧ _ ∧ _ ∧ _ from ⟨(HQ.out _ HC3.out).1.cell 0 rfl, (HQ.out _ HC3.out).1.cell 1 rfl, (HQ.out _ HC3.out).1.cell 2 rfl, (HQ.out _ HC3.out).1.cell 3 rfl, (HQ.out _ HC3.out).1.cell 4 rfl⟩)
  go_wp2_with fail
  refine (specLeft_any a n ca a' n' ca' ep nx (some ⟨g, 0, none⟩) un uc y3 (by omega) (by omega)).mono ?_
  rintro _ y4 ⟨rfl, hb4⟩
  clear d0 d1 d2 d3 d4 u1 u2 u3
  have HA4 : Hid (SAt y4 W2.heap.size bo b X.length cb X b' Y.length cb' Y ep nx va un vc l') := HA3.out.stays hb4
  have HC4 : Hid (Below W2.heap.size W2 y4) := HC3.out.trans (hb4.mono HC3.out.size)
  clear hb4 HA3 HC3
  obtain ⟨Pn, hPn⟩ : ∃ Pn, pcs dl = Pn := ⟨_, rfl⟩
  have HPn : Hid (pcs zs.length = Pn) := by show _ = _; rw [HL.out.2.2.2.2]; exact hPn
  have hquo : ((dl : Int) + 24 - 1).tdiv 24 = (Pn : Int) := by rw [← hPn, pcs]; rw [Int.tdiv_eq_ediv_of_nonneg (by omega)]; omega
  have hquo2 : ((dl : Int) + 23).tdiv 24 = (Pn : Int) := by rw [← hPn, pcs]; rw [Int.tdiv_eq_ediv_of_nonneg (by omega)]; omega
  have hPb : Pn ≤ 17 := by rw [← hPn, pcs]; omega
  have Hw64 : Hid (wrap64 (Pn : Int) = (Pn : Int)) := by show _ = _; unfold wrap64; omega
  by_cases hroom : (n : Int) - nx < (Pn : Int)
  · have hroomw : (n : Int) - nx < wrap64 (Pn : Int) := by rw [Hw64.out]; exact hroom
    have hroomx : ¬ wrap64 (Pn : Int) ≤ (n : Int) - nx := by rw [Hw64.out]; omega
    have hrz : (X.length : Int) - nx < (pcs zs.length : Int) := by rw [HPn.out, HL.out.2.2.2.1]; exact hroom
    have HRs : Hid (putA X Y ep nx (l.map UE.u) id (Z : Int) zs = ⟨X, nx, l.map UE.u, 5⟩) := HPb.out _ (if_pos hrz)
    have HBw : Hid (Below w.heap.size w y4) := HB2.out.trans (HC4.out.mono HB2.out.size)
    obtain ⟨r0, r1, r2, r3, r4⟩ := (show _ ∧ _ ∧ _ ∧ _ ∧ _ from ⟨(HQ.out _ HC4.out).2.cell 0 rfl, (HQ.out _ HC4.out).2.cell 1 rfl, (HQ.out _ HC4.out).2.cell 2 rfl, (HQ.out _ HC4.out).2.cell 3 rfl, (HQ.out _ HC4.out).2.cell 4 rfl⟩)
    obtain ⟨f0, f1, f2, f3, f4⟩ := (show _ ∧ _ ∧ _ ∧ _ ∧ _ from ⟨(HQ.out _ HC4.out).2.frozen 0, (HQ.out _ HC4.out).2.frozen 1, (HQ.out _ HC4.out).2.frozen 2, (HQ.out _ HC4.out).2.frozen 3, (HQ.out _ HC4.out).2.frozen 4⟩)
    obtain ⟨o0, o1, o2, o3, o4⟩ := (show _ ∧ _ ∧ _ ∧ _ ∧ _ from ⟨HA4.out.box.cell 0 rfl, HA4.out.box.cell 1 rfl, HA4.out.box.cell 2 rfl, HA4.out.box.cell 3 rfl, HA4.out.box.cell 4 rfl⟩)
    have HSt : Hid (StoAt y4 W2.heap.size b X.length cb X b' Y.length cb' Y va un vc l') := HA4.out.sto
    clear HQ HX HC4 HA4
    go_wp2_with fail
    refine bodyPost_ret (v := .tuple #[.agg #[.slice b X.length cb, .slice b' Y.length cb', .int .i64 ep, .int .i64 nx, .slice va un vc], .int .i64 5]) (by simp [results, Tryz.f14, go_sem, r0, r1, r2, r3, r4]) rfl ?_
    refine ⟨?_, ?_⟩
    · rw [WAns, HRs.out]
      exact ⟨_, rfl, b, X.length, cb, b', Y.length, cb', va, un, vc, l', rfl, (((((HSt.out.setLow (by omega) _).setLow (by omega) _).setLow (by omega) _).setLow (by omega) _).setLow (by omega) _).low (by omega), HM.out⟩
    · exact ((((HBw.out.setCell (by dsimp only; omega) _).setCell (by dsimp only; omega) _).setCell (by dsimp only; omega) _).setCell (by dsimp only; omega) _).setCell (by dsimp only; omega) _
  have hroomw : ¬ (n : Int) - nx < wrap64 (Pn : Int) := by rw [Hw64.out]; exact hroom
  have hroomx : wrap64 (Pn : Int) ≤ (n : Int) - nx := by rw [Hw64.out]; omega
  go_wp2_with fail
  obtain ⟨M, hM⟩ := Int.eq_ofNat_of_zero_le hn0
  obtain ⟨E, hE⟩ := Int.eq_ofNat_of_zero_le hen.1
  subst hM hE
  have hdl1 : 1 ≤ dl ∧ dl ≤ 400 := by omega
  obtain ⟨db, do_, hda⟩ : ∃ db do_, da = some ⟨db, do_, none⟩ := by
    rcases (HX.out _ HC4.out).2.2.2.2.2 with h | ⟨db, do_, h, _⟩
    · omega
    · exact ⟨db, do_, h⟩
  subst hda
  have hPX : M + Pn ≤ X.length := by have := HL.out.2.2.2.1; omega
  have HP0 : Hid (putU (l.map UE.u) k x.u zs 0 = l.map UE.u) := putU_zero HAt.out.2
  clear hquo hquo2 hroomw hroomx
  go_loopw [13] (fun i wr => ∃ (j F : Nat) (J : Int) (v1 : Option Addr) (v2 v3 : Nat) (lj : List UE), j ≤ Pn ∧ i = .int .i64 (F : Int) ∧ F ≤ dl + 24 ∧ Hid (F = 24 * j) ∧ Hid (J = ((M + j : Nat) : Int)) ∧ Hid (BoxN wr bo 32 [.slice b X.length cb, .slice b' Y.length cb', .int .i64 (E : Int), .int .i64 J, .slice v1 v2 v3]) ∧ Hid (StoAt wr W2.heap.size b X.length cb (wroteX X (E : Int) M ((dataRs id (Z : Int) zs).take j)) b' Y.length cb' Y v1 v2 v3 lj) ∧ Hid (lj.map UE.u = putU (l.map UE.u) k x.u zs j) ∧ Hid (Below W2.heap.size W2 wr)) (fun i _ => dl + 24 - (intOf i).toNat)
  case atStart => exact ⟨0, 0, (M : Int), va, un, vc, l', Nat.zero_le _, rfl, by omega, rfl, rfl, HA4.out.box, HA4.out.sto, by show _ = _; rw [HP0.out]; exact HM.out, HC4⟩
  case round =>
    clear HA4 HC4
    obtain ⟨j, FF, J, v1, v2, v3, lj, hj, rfl, hFd, HF, HJ, HBx, HSx, HMj, HWx⟩ := hrel
    by_cases hlt : FF < dl
    case neg =>
      have hnl : ¬ (FF : Int) < (dl : Int) := by omega
      have hjP : Hid (j = Pn) := by show _ = _; have h1 := HF.out; have h2 := hPn; unfold pcs at h2; omega
      have HRs : Hid (putA X Y (E : Int) (M : Int) (l.map UE.u) id (Z : Int) zs = ⟨wroteX X (E : Int) M ((dataRs id (Z : Int) zs).take j), J, putU (l.map UE.u) k x.u zs j, 0⟩) := by
        show _ = _
        rw [HPb.out _ rfl, if_neg (by rw [HPn.out, HL.out.2.2.2.1]; omega), hjP.out, wroteA]
        have e1 : (dataRs id (Z : Int) zs).take Pn = dataRs id (Z : Int) zs := List.take_of_length_le (by rw [dataRs_len, HPn.out]; exact Nat.le_refl _)
        have e2 : (dataRs id (Z : Int) zs).foldlM oneU (l.map UE.u) = some (putU (l.map UE.u) k x.u zs Pn) := by
          have h := put_fold HAt.out.1 HAt.out.2 HDn.out (by rw [HZe.out]) HBg.out Pn (by rw [HPn.out]; exact Nat.le_refl _)
          rw [← dataRs_take _ _ _ (by rw [HPn.out]; exact Nat.le_refl _), e1] at h
          exact h
        rw [e1, e2, dataRs_len, HPn.out, HJ.out, hjP.out]
        rfl
      have HBw : Hid (Below w.heap.size w wr) := HB2.out.trans (HWx.out.mono HB2.out.size)
      obtain ⟨r0, r1, r2, r3, r4⟩ := (show _ ∧ _ ∧ _ ∧ _ ∧ _ from ⟨(HQ.out _ HWx.out).2.cell 0 rfl, (HQ.out _ HWx.out).2.cell 1 rfl, (HQ.out _ HWx.out).2.cell 2 rfl, (HQ.out _ HWx.out).2.cell 3 rfl, (HQ.out _ HWx.out).2.cell 4 rfl⟩)
      obtain ⟨f0, f1, f2, f3, f4⟩ := (show _ ∧ _ ∧ _ ∧ _ ∧ _ from ⟨(HQ.out _ HWx.out).2.frozen 0, (HQ.out _ HWx.out).2.frozen 1, (HQ.out _ HWx.out).2.frozen 2, (HQ.out _ HWx.out).2.frozen 3, (HQ.out _ HWx.out).2.frozen 4⟩)
      obtain ⟨o0, o1, o2, o3, o4⟩ := (show _ ∧ _ ∧ _ ∧ _ ∧ _ from ⟨HBx.out.cell 0 rfl, HBx.out.cell 1 rfl, HBx.out.cell 2 rfl, HBx.out.cell 3 rfl, HBx.out.cell 4 rfl⟩)
      clear HQ HX HBx HWx
      go_wp2_with fail
      refine bodyPost_ret (v := .tuple #[.agg #[.slice b X.length cb, .slice b' Y.length cb', .int .i64 (E : Int), .int .i64 J, .slice v1 v2 v3], .int .i64 0]) (by simp [results, Tryz.f14, go_sem, r0, r1, r2, r3, r4]) rfl ?_
      refine ⟨?_, ?_⟩
      · rw [WAns, HRs.out]
        exact ⟨_, rfl, b, X.length, cb, b', Y.length, cb', v1, v2, v3, lj, rfl, (((((HSx.out.setLow (by omega) _).setLow (by omega) _).setLow (by omega) _).setLow (by omega) _).setLow (by omega) _).low (by omega), HMj.out⟩
      · exact ((((HBw.out.setCell (by dsimp only; omega) _).setCell (by dsimp only; omega) _).setCell (by dsimp only; omega) _).setCell (by dsimp only; omega) _).setCell (by dsimp only; omega) _
    have hFi : (FF : Int) < (dl : Int) := by omega
    have hF0 : (0 : Int) ≤ (FF : Int) := by omega
    have hcF : ¬ dc = FF := by omega
    obtain ⟨j0, ji, jz0, jz1, jz2⟩ := info_parts Tryz.info5
    by_cases hto : (dl : Int) < (FF : Int) + 24
    · have hdci : (dl : Int) ≤ (dc : Int) := by omega
      have hmF : FF + (dl - FF) ≤ dl := by omega
      have HPz : Hid ((zs.drop FF).take (dl - FF) = (zs.drop (24 * j)).take 24) := by
        show _ = _
        rw [HF.out]
        rw [List.take_of_length_le (by rw [List.length_drop, HL.out.2.2.2.2]; omega), List.take_of_length_le (by rw [List.length_drop, HL.out.2.2.2.2]; have := HF.out; omega)]
      have hb5 := (Below.refl wr.heap.size wr).alloc (Nat.le_refl _) (.cells #[] 5)
      have HR5 : Hid ((wr.alloc (.cells #[] 5)).ownsRow wr.heap.size 5 1 (.slice (some ⟨wr.heap.size, 0, none⟩) 0 0) 0 []) := World.ownsRow_lit wr #[] 0 (Nat.le_refl _) (Nat.zero_le _) rfl
      have hsp := seg_part (HX.out _ HWx.out).2.2.2 FF (dl - FF) hmF
      have HSr : Hid (Src Tryz.prog 1 39 (.slice (some ⟨db, do_ + FF, none⟩) (dl - FF) (dc - FF)) (dl - FF) (((zs.drop FF).take (dl - FF)).map (Value.int .u8)) (wr.alloc (.cells #[] 5))) := (hsp.below hb5).src
      have HZr : Hid (∀ y ∈ (zs.drop FF).take (dl - FF), 0 ≤ y ∧ y ≤ 255) := hsp.2.1
      have HL5 : Hid (wr.heap.size ≤ (wr.alloc (.cells #[] 5)).heap.size) := hb5.size
      clear hsp
      go_upto_region 18 with fail
      go_wp2_with (at_builtin; refine wpList_append_loc rfl _ _ 39 39 rfl wr.heap.size 5 j0 (.int .u8 0) 1 1 Tryz.underlying39 ji jz0 jz1 jz2 rfl (by decide) wr.heap.size 0 0 [] rfl HR5.out (.slice (some ⟨db, do_ + FF, none⟩) (dl - FF) (dc - FF)) (dl - FF) (((zs.drop FF).take (dl - FF)).map (Value.int .u8)) rfl HSr.out (by unfold maxLen; omega) (by omega) HL5.out ?_; intro gA C x6 hown6 hg6 _; refine Hid.out ?_)
      refine hidden ?_
      obtain ⟨AA, hAe⟩ : ∃ AA : Option Addr, some ⟨gA, 0, none⟩ = AA := ⟨_, rfl⟩
      rw [hAe] at hown6 ⊢
      have hown6' : x6.ownsRow wr.heap.size 5 1 (.slice AA (dl - FF) C) (dl - FF) (((zs.drop (24 * j)).take 24).map (Value.int .u8)) := by
        have h := hown6
        rw [Nat.zero_add, HPz.out] at h
        simpa using h
      have HO6 : Hid (Owns x6 wr.heap.size AA (dl - FF) C ((zs.drop (24 * j)).take 24)) := ⟨hown6', by rw [← HPz.out]; exact HZr.out⟩
      have hb6 : Below wr.heap.size wr x6 := hb5.grown hg6 (by simp) (fun q hq => by injection hq with hq; omega)
      have HB6 : Hid (BoxN x6 bo 32 [.slice b X.length cb, .slice b' Y.length cb', .int .i64 (E : Int), .int .i64 J, .slice v1 v2 v3]) := HBx.out.stays hb6
      have HS6 : Hid (StoAt x6 W2.heap.size b X.length cb (wroteX X (E : Int) M ((dataRs id (Z : Int) zs).take j)) b' Y.length cb' Y v1 v2 v3 lj) := HSx.out.stays hb6
      have HW6 : Hid (Below W2.heap.size W2 x6) := HWx.out.trans (hb6.mono HWx.out.size)
      clear hown6 hown6' hg6 hb5 hb6 hAe HR5 HSr HZr HL5 HBx HSx HWx
      have hjP : j < Pn := by have h1 := HF.out; have h2 := hPn; unfold pcs at h2; omega
      have HXl : Hid ((wroteX X (E : Int) M ((dataRs id (Z : Int) zs).take j)).length = X.length) := wroteX_len _ _ _ _
      have HNx : Hid (wroteX X (E : Int) M ((dataRs id (Z : Int) zs).take (j + 1)) = (wroteX X (E : Int) M ((dataRs id (Z : Int) zs).take j)).set (M + j) (txU (sumB (recB E (M + j) 2 id (Z + FF) ((zs.drop (24 * j)).take 24))))) := by
        show _ = _
        rw [wroteX_next (dataRs_at id (Z : Int) zs (by rw [HPn.out]; exact hjP)), HF.out]
        rfl
      have HOne : Hid (oneU (lj.map UE.u) ⟨(E : Int), ((M + j : Nat) : Int), ((2 : Nat) : Int), id, ((Z + FF : Nat) : Int), (zs.drop (24 * j)).take 24⟩ = some (putU (l.map UE.u) k x.u zs (j + 1))) := by
        show _ = _
        rw [HMj.out, ← putU_step HAt.out.1 HAt.out.2 HDn.out (by rw [HZe.out]) HBg.out j (by rw [HPn.out]; exact hjP), HF.out]
        rfl
      have hzj : ∀ e ∈ lj, e.n ≤ 1099511627776 := fun e he => by
        have h1 := (HS6.out.ups.2.1 e he).seg.1
        have h2 : e.u ∈ putU (l.map UE.u) k x.u zs j := by rw [← HMj.out]; exact List.mem_map_of_mem he
        rcases List.mem_or_eq_of_mem_set h2 with h3 | h3
        · have := (fold_small HSo.out.1 HSo.out.2.2.1).2 _ h3
          omega
        · rw [h3] at h1
          have h4 := HZe.out
          have h5 := HL.out.2.2.2.2
          simp only [List.length_append, List.length_take] at h1
          omega
      have hv2 : v2 ≤ 10 := by
        have h1 := HS6.out.len
        have h2 := congrArg List.length HMj.out
        rw [List.length_map, putU, List.length_set] at h2
        have := HSo.out.few
        omega
      have hi8 : id.size ≤ 255 := by
        have h := HId.out
        simp only [idB, Bool.and_eq_true, decide_eq_true_eq, Array.length_toList] at h
        have h8 : id.data.size = id.size := rfl
        omega
      have HWr : Hid (Calls Tryz.prog 31 #[.pointer (some ⟨bo, 0, none⟩), .agg #[.int .i64 0, .int .i64 0, .int .i64 2, .string id, .int .i64 ((Z : Int) + (FF : Int)), .slice AA (dl - FF) C]] x6 fun e w' => e = .returned (.tuple #[]) ∧ (∃ ua' un' uc' l2, BoxN w' bo 32 [.slice b X.length cb, .slice b' Y.length cb', .int .i64 (E : Int), .int .i64 (((M + j : Nat) : Int) + 1), .slice ua' un' uc'] ∧ StoAt w' W2.heap.size b X.length cb (wroteX X (E : Int) M ((dataRs id (Z : Int) zs).take (j + 1))) b' Y.length cb' Y ua' un' uc' l2 ∧ l2.map UE.u = putU (l.map UE.u) k x.u zs (j + 1)) ∧ Below W2.heap.size x6 w') := by
        have e1 : (Z : Int) + (FF : Int) = ((Z + FF : Nat) : Int) := by omega
        have hbx : BoxN x6 bo 32 [.slice b (wroteX X (E : Int) M ((dataRs id (Z : Int) zs).take j)).length cb, .slice b' Y.length cb', .int .i64 (E : Int), .int .i64 ((M + j : Nat) : Int), .slice v1 v2 v3] := by rw [HXl.out, ← HJ.out]; exact HB6.out
        have hst : StoAt x6 W2.heap.size b (wroteX X (E : Int) M ((dataRs id (Z : Int) zs).take j)).length cb (wroteX X (E : Int) M ((dataRs id (Z : Int) zs).take j)) b' Y.length cb' Y v1 v2 v3 lj := by rw [HXl.out]; exact HS6.out
        have h := specWrite_any W2.heap.size bo b cb (wroteX X (E : Int) M ((dataRs id (Z : Int) zs).take j)) b' Y.length cb' Y E (M + j) v1 v2 v3 lj 0 0 2 id (Z + FF) AA (dl - FF) C ((zs.drop (24 * j)).take 24) (putU (l.map UE.u) k x.u zs (j + 1)) x6 hbx hst hlo wr.heap.size HO6.out (by rw [HXl.out]; omega) (by rw [HXl.out]; omega) (by omega) hzj hi8 (by omega) (by omega) (by omega) (by omega) HOne.out
        rw [HXl.out, ← HNx.out] at h
        rw [e1]
        exact h
      go_wp2_with fail
      refine HWr.out.mono ?_
      rintro _ x7 ⟨rfl, ⟨ua', un', uc', l2, hq7, hs7, hm7⟩, hb7⟩
      have HB7 : Hid (BoxN x7 bo 32 [.slice b X.length cb, .slice b' Y.length cb', .int .i64 (E : Int), .int .i64 (((M + j : Nat) : Int) + 1), .slice ua' un' uc']) := hq7
      have HS7 : Hid (StoAt x7 W2.heap.size b X.length cb (wroteX X (E : Int) M ((dataRs id (Z : Int) zs).take (j + 1))) b' Y.length cb' Y ua' un' uc' l2) := hs7
      have HM7 : Hid (l2.map UE.u = putU (l.map UE.u) k x.u zs (j + 1)) := hm7
      have HW7 : Hid (Below W2.heap.size W2 x7) := HW6.out.trans hb7
      have HJ7 : Hid (((M + j : Nat) : Int) + 1 = ((M + (j + 1) : Nat) : Int)) := by show _ = _; omega
      have HF7 : Hid (FF + 24 = 24 * (j + 1)) := by show _ = _; have := HF.out; omega
      clear hq7 hs7 hm7 hb7 HWr HB6 HS6 HW6 HO6 HOne
      go_wp2_with fail
      go_roundw
      case rel => exact ⟨j + 1, FF + 24, ((M + j : Nat) : Int) + 1, ua', un', uc', l2, by omega, by go_num, by omega, HF7, HJ7, HB7, HS7, HM7, HW7⟩
      case measure => simp [intOf]; omega
    · obtain ⟨EE, hEe⟩ : ∃ EE : Nat, EE = FF + 24 := ⟨_, rfl⟩
      have HE24 : Hid (EE - FF = 24) := by show _ = _; omega
      have HEi : Hid ((FF : Int) + 24 = (EE : Int)) := by show _ = _; omega
      have hdci : (EE : Int) ≤ (dc : Int) := by omega
      have hFE : (FF : Int) ≤ (EE : Int) := by omega
      have hE1 : EE < FF + 25 := by omega
      have hE2 : EE ≤ dl := by omega
      have hmF : FF + (EE - FF) ≤ dl := by omega
      clear hEe
      have HPz : Hid ((zs.drop FF).take (EE - FF) = (zs.drop (24 * j)).take 24) := by
        show _ = _
        rw [HE24.out, HF.out]
      have hb5 := (Below.refl wr.heap.size wr).alloc (Nat.le_refl _) (.cells #[] 5)
      have HR5 : Hid ((wr.alloc (.cells #[] 5)).ownsRow wr.heap.size 5 1 (.slice (some ⟨wr.heap.size, 0, none⟩) 0 0) 0 []) := World.ownsRow_lit wr #[] 0 (Nat.le_refl _) (Nat.zero_le _) rfl
      have hsp := seg_part (HX.out _ HWx.out).2.2.2 FF (EE - FF) hmF
      have HSr : Hid (Src Tryz.prog 1 39 (.slice (some ⟨db, do_ + FF, none⟩) (EE - FF) (dc - FF)) (EE - FF) (((zs.drop FF).take (EE - FF)).map (Value.int .u8)) (wr.alloc (.cells #[] 5))) := (hsp.below hb5).src
      have HZr : Hid (∀ y ∈ (zs.drop FF).take (EE - FF), 0 ≤ y ∧ y ≤ 255) := hsp.2.1
      have HL5 : Hid (wr.heap.size ≤ (wr.alloc (.cells #[] 5)).heap.size) := hb5.size
      clear hsp
      go_upto_region 18 with fail
      rw [HEi.out]
      go_wp2_with (at_builtin; refine wpList_append_loc rfl _ _ 39 39 rfl wr.heap.size 5 j0 (.int .u8 0) 1 1 Tryz.underlying39 ji jz0 jz1 jz2 rfl (by decide) wr.heap.size 0 0 [] rfl HR5.out (.slice (some ⟨db, do_ + FF, none⟩) (EE - FF) (dc - FF)) (EE - FF) (((zs.drop FF).take (EE - FF)).map (Value.int .u8)) rfl HSr.out (by unfold maxLen; omega) (by omega) HL5.out ?_; intro gA C x6 hown6 hg6 _; refine Hid.out ?_)
      refine hidden ?_
      obtain ⟨AA, hAe⟩ : ∃ AA : Option Addr, some ⟨gA, 0, none⟩ = AA := ⟨_, rfl⟩
      rw [hAe] at hown6 ⊢
      have hown6' : x6.ownsRow wr.heap.size 5 1 (.slice AA (EE - FF) C) (EE - FF) (((zs.drop (24 * j)).take 24).map (Value.int .u8)) := by
        have h := hown6
        rw [Nat.zero_add, HPz.out] at h
        simpa using h
      have HO6 : Hid (Owns x6 wr.heap.size AA (EE - FF) C ((zs.drop (24 * j)).take 24)) := ⟨hown6', by rw [← HPz.out]; exact HZr.out⟩
      have hb6 : Below wr.heap.size wr x6 := hb5.grown hg6 (by simp) (fun q hq => by injection hq with hq; omega)
      have HB6 : Hid (BoxN x6 bo 32 [.slice b X.length cb, .slice b' Y.length cb', .int .i64 (E : Int), .int .i64 J, .slice v1 v2 v3]) := HBx.out.stays hb6
      have HS6 : Hid (StoAt x6 W2.heap.size b X.length cb (wroteX X (E : Int) M ((dataRs id (Z : Int) zs).take j)) b' Y.length cb' Y v1 v2 v3 lj) := HSx.out.stays hb6
      have HW6 : Hid (Below W2.heap.size W2 x6) := HWx.out.trans (hb6.mono HWx.out.size)
      clear hown6 hown6' hg6 hb5 hb6 hAe HR5 HSr HZr HL5 HBx HSx HWx
      have hjP : j < Pn := by have h1 := HF.out; have h2 := hPn; unfold pcs at h2; omega
      have HXl : Hid ((wroteX X (E : Int) M ((dataRs id (Z : Int) zs).take j)).length = X.length) := wroteX_len _ _ _ _
      have HNx : Hid (wroteX X (E : Int) M ((dataRs id (Z : Int) zs).take (j + 1)) = (wroteX X (E : Int) M ((dataRs id (Z : Int) zs).take j)).set (M + j) (txU (sumB (recB E (M + j) 2 id (Z + FF) ((zs.drop (24 * j)).take 24))))) := by
        show _ = _
        rw [wroteX_next (dataRs_at id (Z : Int) zs (by rw [HPn.out]; exact hjP)), HF.out]
        rfl
      have HOne : Hid (oneU (lj.map UE.u) ⟨(E : Int), ((M + j : Nat) : Int), ((2 : Nat) : Int), id, ((Z + FF : Nat) : Int), (zs.drop (24 * j)).take 24⟩ = some (putU (l.map UE.u) k x.u zs (j + 1))) := by
        show _ = _
        rw [HMj.out, ← putU_step HAt.out.1 HAt.out.2 HDn.out (by rw [HZe.out]) HBg.out j (by rw [HPn.out]; exact hjP), HF.out]
        rfl
      have hzj : ∀ e ∈ lj, e.n ≤ 1099511627776 := fun e he => by
        have h1 := (HS6.out.ups.2.1 e he).seg.1
        have h2 : e.u ∈ putU (l.map UE.u) k x.u zs j := by rw [← HMj.out]; exact List.mem_map_of_mem he
        rcases List.mem_or_eq_of_mem_set h2 with h3 | h3
        · have := (fold_small HSo.out.1 HSo.out.2.2.1).2 _ h3
          omega
        · rw [h3] at h1
          have h4 := HZe.out
          have h5 := HL.out.2.2.2.2
          simp only [List.length_append, List.length_take] at h1
          omega
      have hv2 : v2 ≤ 10 := by
        have h1 := HS6.out.len
        have h2 := congrArg List.length HMj.out
        rw [List.length_map, putU, List.length_set] at h2
        have := HSo.out.few
        omega
      have hi8 : id.size ≤ 255 := by
        have h := HId.out
        simp only [idB, Bool.and_eq_true, decide_eq_true_eq, Array.length_toList] at h
        have h8 : id.data.size = id.size := rfl
        omega
      have HWr : Hid (Calls Tryz.prog 31 #[.pointer (some ⟨bo, 0, none⟩), .agg #[.int .i64 0, .int .i64 0, .int .i64 2, .string id, .int .i64 ((Z : Int) + (FF : Int)), .slice AA (EE - FF) C]] x6 fun e w' => e = .returned (.tuple #[]) ∧ (∃ ua' un' uc' l2, BoxN w' bo 32 [.slice b X.length cb, .slice b' Y.length cb', .int .i64 (E : Int), .int .i64 (((M + j : Nat) : Int) + 1), .slice ua' un' uc'] ∧ StoAt w' W2.heap.size b X.length cb (wroteX X (E : Int) M ((dataRs id (Z : Int) zs).take (j + 1))) b' Y.length cb' Y ua' un' uc' l2 ∧ l2.map UE.u = putU (l.map UE.u) k x.u zs (j + 1)) ∧ Below W2.heap.size x6 w') := by
        have e1 : (Z : Int) + (FF : Int) = ((Z + FF : Nat) : Int) := by omega
        have hbx : BoxN x6 bo 32 [.slice b (wroteX X (E : Int) M ((dataRs id (Z : Int) zs).take j)).length cb, .slice b' Y.length cb', .int .i64 (E : Int), .int .i64 ((M + j : Nat) : Int), .slice v1 v2 v3] := by rw [HXl.out, ← HJ.out]; exact HB6.out
        have hst : StoAt x6 W2.heap.size b (wroteX X (E : Int) M ((dataRs id (Z : Int) zs).take j)).length cb (wroteX X (E : Int) M ((dataRs id (Z : Int) zs).take j)) b' Y.length cb' Y v1 v2 v3 lj := by rw [HXl.out]; exact HS6.out
        have h := specWrite_any W2.heap.size bo b cb (wroteX X (E : Int) M ((dataRs id (Z : Int) zs).take j)) b' Y.length cb' Y E (M + j) v1 v2 v3 lj 0 0 2 id (Z + FF) AA (EE - FF) C ((zs.drop (24 * j)).take 24) (putU (l.map UE.u) k x.u zs (j + 1)) x6 hbx hst hlo wr.heap.size HO6.out (by rw [HXl.out]; omega) (by rw [HXl.out]; omega) (by omega) hzj hi8 (by omega) (by omega) (by omega) (by omega) HOne.out
        rw [HXl.out, ← HNx.out] at h
        rw [e1]
        exact h
      go_wp2_with fail
      refine HWr.out.mono ?_
      rintro _ x7 ⟨rfl, ⟨ua', un', uc', l2, hq7, hs7, hm7⟩, hb7⟩
      have HB7 : Hid (BoxN x7 bo 32 [.slice b X.length cb, .slice b' Y.length cb', .int .i64 (E : Int), .int .i64 (((M + j : Nat) : Int) + 1), .slice ua' un' uc']) := hq7
      have HS7 : Hid (StoAt x7 W2.heap.size b X.length cb (wroteX X (E : Int) M ((dataRs id (Z : Int) zs).take (j + 1))) b' Y.length cb' Y ua' un' uc' l2) := hs7
      have HM7 : Hid (l2.map UE.u = putU (l.map UE.u) k x.u zs (j + 1)) := hm7
      have HW7 : Hid (Below W2.heap.size W2 x7) := HW6.out.trans hb7
      have HJ7 : Hid (((M + j : Nat) : Int) + 1 = ((M + (j + 1) : Nat) : Int)) := by show _ = _; omega
      have HF7 : Hid (FF + 24 = 24 * (j + 1)) := by show _ = _; have := HF.out; omega
      clear hq7 hs7 hm7 hb7 HWr HB6 HS6 HW6 HO6 HOne
      go_wp2_with fail
      go_roundw
      case rel => exact ⟨j + 1, FF + 24, ((M + j : Nat) : Int) + 1, ua', un', uc', l2, by omega, by go_num, by omega, HF7, HJ7, HB7, HS7, HM7, HW7⟩
      case measure => simp [intOf]; omega

end Go.Proofs.YtammmecddnafaaaGreatDoor
