/- What the program's dataFrames answers: frames of data, whose bodies lie where they were. A copy of bytes into a row of the call's own, at a place. What the program's PutFrame answers: the frame's bytes, in memory of its own, or nothing; nothing that was there is written. The bytes of a list of frames: what the program's putFrames answers. -/
import Derived.Test.YtbaijmkghgnleaaGreatDoorM40
import Derived.Test.YtbaijmkghgnleaaGreatDoorM25
import Derived.Test.YtbaijmkghgnleaaGreatDoorM25
import Derived.Test.YtbaijmkghgnleaaGreatDoorM41
import Derived.Test.YtbaijmkghgnleaaGreatDoorM39
import Derived.Test.YtbaijmkghgnleaaGreatDoorM26
import Derived.Test.YtbaijmkghgnleaaGreatDoorM25
import Derived.RangeFuncBox
import Derived.Deep.CutBlock
import Derived.Test.YtbaijmkghgnleaaGreatDoorM01
import Derived.Test.YtbaijmkghgnleaaGreatDoorM24
import Derived.Test.YtbaijmkghgnleaaGreatDoorM24
import Derived.Test.YtbaijmkghgnleaaGreatDoorM23
import Derived.Test.YtbaijmkghgnleaaGreatDoorM05
import Derived.Deep.RegionWith
import Derived.Test.YtbaijmkghgnleaaGreatDoorM03
namespace Go.Proofs.YtbaijmkghgnleaaGreatDoor
open Go.RowKit Go.Shelf
set_option linter.unusedVariables false
attribute [local go_sem] Oper.semAt_some

/-- The frame of a piece, in the row. -/
def pcE (m : Nat) (s : Int) (zs : List Int) (b o L i : Nat) : FE := ⟨0, 0, s, some ⟨b, pcAt o m i, none⟩, pcLen m L i, pcLen m L i, (zs.drop (i * m)).take m⟩
def pcL (m : Nat) (s : Int) (zs : List Int) (b o L k : Nat) : List FE := (List.range k).map (pcE m s zs b o L)

theorem pcL_len (m : Nat) (s : Int) (zs : List Int) (b o L k : Nat) : (pcL m s zs b o L k).length = k := by simp [pcL]

theorem pcL_next (m : Nat) (s : Int) (zs : List Int) (b o L k : Nat) : pcL m s zs b o L (k + 1) = pcL m s zs b o L k ++ [pcE m s zs b o L k] := by
  rw [pcL, List.range_succ, List.map_append]
  rfl

theorem pcL_succ (m : Nat) (s : Int) (zs : List Int) (b o L k : Nat) : feCells (pcL m s zs b o L (k + 1)) = feCells (pcL m s zs b o L k) ++ FE.cells (pcE m s zs b o L k) := by
  rw [pcL_next, feCells_append]
  simp [feCells]

theorem fe_new (W : World) (s : Int) (a : Option Addr) (n c : Nat) : ∀ j u, ([.int .i64 0, .int .i64 0, .int .i64 s, .slice a n c] : List Value)[j]? = some u → (W.alloc (.cells #[.int .i64 0, .int .i64 0, .int .i64 s, .slice a n c] 55)).cell? ((⟨W.heap.size, 0, none⟩ : Addr).add j) = some u := by
  intro j u hj
  match j, hj with
  | 0, hj => simp at hj; subst hj; simp [Addr.add]
  | 1, hj => simp at hj; subst hj; simp [Addr.add]
  | 2, hj => simp at hj; subst hj; simp [Addr.add]
  | 3, hj => simp at hj; subst hj; simp [Addr.add]

theorem fe_one (s : Int) (a : Option Addr) (n c : Nat) : ∀ u ∈ ([.int .i64 0, .int .i64 0, .int .i64 s, .slice a n c] : List Value), u.oneCell' = true := by
  intro u hu
  simp at hu
  rcases hu with rfl | rfl | rfl <;> rfl

/-- The bodies lie in the body that came. -/
theorem pcL_seg {W : World} {b o L m : Nat} {zs : List Int} (h : Seg W (some ⟨b, o, none⟩) L zs) (s : Int) {k : Nat} (hk : k ≤ pd m L) (hm : 1 ≤ m) : ∀ e ∈ pcL m s zs b o L k, Seg W e.a e.n e.zs := by
  intro e he
  obtain ⟨i, hi, rfl⟩ := List.mem_map.1 he
  have hi' := List.mem_range.1 hi
  have h1 : i * m < L := (pd_lt hm).1 (by omega)
  have h2 : pcLen m L i = min m (L - i * m) := rfl
  have h4 := seg_part h (i * m) (pcLen m L i) (by rw [h2]; omega)
  have e1 : (zs.drop (i * m)).take (pcLen m L i) = (zs.drop (i * m)).take m := by
    rw [h2]
    by_cases h5 : m ≤ L - i * m
    · rw [Nat.min_eq_left h5]
    · rw [Nat.min_eq_right (by omega), List.take_of_length_le (by rw [List.length_drop, h.1]; exact Nat.le_refl _), List.take_of_length_le (by rw [List.length_drop, h.1]; omega)]
  rw [e1] at h4
  exact h4

/-- With the last one's flag they say what they should. -/
theorem pcL_data {m b o L P : Nat} {s : Int} {zs : List Int} (hz : zs.length = L) (hP : pd m L = P + 1) : (pcL m s zs b o L P ++ [{ pcE m s zs b o L P with f := 1 }]).map FE.data = dataL s zs m := by
  rw [dataL, hz, hP, List.range_succ, List.map_append, List.map_append]
  congr 1
  · rw [pcL, List.map_map]
    refine List.map_congr_left fun i hi => ?_
    have := List.mem_range.1 hi
    simp only [Function.comp, FE.data, pcE]
    rw [if_neg (by omega)]
  · simp [FE.data, pcE]

/-- The answer. -/
def DatAns (s : Int) (zs : List Int) (m n : Nat) (e : Ending) (w' : World) : Prop := ∃ ra c l, e = .returned (.slice ra n c) ∧ FrIn w' ra n l ∧ l.map FE.data = dataL s zs m

set_option maxRecDepth 10000 in
set_option maxHeartbeats 1600000 in
theorem implDatFrs_any (s : Int) (b o L C : Nat) (zs : List Int) (most : Int) (m : Nat) (w : World) (hs : Seg w (some ⟨b, o, none⟩) L zs) (hC : L ≤ C) (hL : L ≤ 1048576) (hmo : clampM most = m) :
    Calls Tryz.prog 36 #[.int .i64 s, .slice (some ⟨b, o, none⟩) L C, .int .i64 most] w fun e w' => DatAns s zs m (pd m L) e w' ∧ Below w.heap.size w w' := by
  obtain ⟨i0, hi, hz0, hz1, hz2⟩ := info_parts info_frame
  have hm1 : 1 ≤ m ∧ m ≤ 1000 := by rw [← hmo]; exact clampM_range most
  have HM : Hid (clampM most = m) := hmo
  have HS : Hid (Seg w (some ⟨b, o, none⟩) L zs) := hs
  have hzl : zs.length = L := hs.1
  have HZl : Hid (zs.length = L) := hzl
  obtain ⟨n, hn⟩ : ∃ n, pd m L = n := ⟨_, rfl⟩
  have hnL : n ≤ L := by rw [← hn]; exact pd_le m L hm1.1
  have HN : Hid (∀ k, k * m < L → (¬ (k + 1) * m < L → n = k + 1)) := fun k h1 h2 => by
    have e1 := (pd_lt (m := m) (L := L) (j := k) hm1.1).2 h1
    have e2 := mt (pd_lt (m := m) (L := L) (j := k + 1) hm1.1).1 h2
    omega
  have HN0 : Hid (¬ 0 < L → n = 0) := fun h => by omega
  have HNl : Hid (∀ k, k * m < L → k < n) := fun k h => by rw [← hn]; exact (pd_lt hm1.1).2 h
  have HNn : Hid (pd m L = n) := hn
  rw [hn]
  clear hs hn hzl hmo
  obtain ⟨W2, hW2⟩ : ∃ W2, (((w.alloc (.cells #[.int .i64 s] 3)).alloc (.cells #[.slice none 0 0] 52)).alloc (.cells #[.slice (some ⟨b, o, none⟩) L C] 27)).alloc (.cells #[.int .i64 (m : Int)] 3) = W2 := ⟨_, rfl⟩
  have HE : Hid ((((w.alloc (.cells #[.int .i64 s] 3)).alloc (.cells #[.slice none 0 0] 52)).alloc (.cells #[.slice (some ⟨b, o, none⟩) L C] 27)).alloc (.cells #[.int .i64 (m : Int)] 3) = W2) := hW2
  have hsz : W2.heap.size = w.heap.size + 4 := by rw [← hW2]; simp
  have bI : Boxed W2 w.heap.size 3 (.int .i64 s) := by rw [← hW2]; exact (((Boxed.new _ _ _).alloc _).alloc _).alloc _
  have bL : Boxed W2 (w.heap.size + 1) 52 (.slice none 0 0) := by
    rw [← hW2]
    have := ((Boxed.new (w.alloc (.cells #[.int .i64 s] 3)) 52 (.slice none 0 0)).alloc (.cells #[.slice (some ⟨b, o, none⟩) L C] 27)).alloc (.cells #[.int .i64 (m : Int)] 3)
    rwa [World.size_alloc] at this
  have bS : Boxed W2 (w.heap.size + 2) 27 (.slice (some ⟨b, o, none⟩) L C) := by
    rw [← hW2]
    have := (Boxed.new ((w.alloc (.cells #[.int .i64 s] 3)).alloc (.cells #[.slice none 0 0] 52)) 27 (.slice (some ⟨b, o, none⟩) L C)).alloc (.cells #[.int .i64 (m : Int)] 3)
    rwa [World.size_alloc, World.size_alloc] at this
  have bN : Boxed W2 (w.heap.size + 3) 3 (.int .i64 (m : Int)) := by
    rw [← hW2]
    have := Boxed.new (((w.alloc (.cells #[.int .i64 s] 3)).alloc (.cells #[.slice none 0 0] 52)).alloc (.cells #[.slice (some ⟨b, o, none⟩) L C] 27)) 3 (.int .i64 (m : Int))
    rwa [World.size_alloc, World.size_alloc, World.size_alloc] at this
  have hBl : Below w.heap.size w W2 := by rw [← hW2]; exact ((((Below.refl _ _).alloc (Nat.le_refl _) _).alloc (by simp) _).alloc (by simp; omega) _).alloc (by simp; omega) _
  have HI0 : Hid ((∃ u, Boxed W2 (w.heap.size + 1) 52 u ∧ W2.ownsRow w.heap.size 55 4 u 0 (feCells (pcL m s zs b o L 0)) ∧ True) ∧ Boxed W2 w.heap.size 3 (.int .i64 s) ∧ Boxed W2 (w.heap.size + 2) 27 (.slice (some ⟨b, o, none⟩) L C) ∧ Boxed W2 (w.heap.size + 3) 3 (.int .i64 (m : Int)) ∧ True ∧ Below w.heap.size w W2) :=
    ⟨⟨_, bL, ⟨rfl, .inl ⟨rfl, rfl⟩⟩, trivial⟩, bI, bS, bN, trivial, hBl⟩
  clear hW2 bI bL bS bN hBl
  refine (callsIn_wide (n := 4)).1 ?_
  refine callsIn_of_wp_marks Tryz.func36 rfl trivial ?_ rfl
  simp only [Tryz.ntmps36, List.size_toArray, List.length_cons, List.length_nil, Nat.reduceAdd, Nat.reduceSub, Array.replicate_succ, Array.replicate_zero, List.push_toArray, List.append_toArray, List.nil_append, List.cons_append]
  refine wpIn_wide.2 ?_
  go_wp2_with (first
    | (go_at_call 59; refine (pieceLen_any most m _ HM.out).mono ?_; rintro e w5 ⟨rfl, rfl⟩)
    | (go_at_call 61; refine (callsIn_wide.1 (chunk_any _ _ _ m _ 4 hm1.1)).mono ?_; rintro e w5 ⟨rfl, rfl⟩))
  rw [HE.out]
  clear HE
  refine (wpIn_wide (n := 4)).1 ?_
  refine loop_turns (n := 4) rfl (by decide) (gf := 77) (lb := #[.pointer (some ⟨w.heap.size + 2, 0, none⟩), .pointer (some ⟨w.heap.size + 3, 0, none⟩)]) rfl trivial (enters_of Tryz.func77 (by kernel_rfl) rfl) (encC b o m L) (fun _ => rfl)
    (fun (k : Nat) W => (∃ u, Boxed W (w.heap.size + 1) 52 u ∧ W.ownsRow w.heap.size 55 4 u k (feCells (pcL m s zs b o L k)) ∧ True) ∧ Boxed W w.heap.size 3 (.int .i64 s) ∧ Boxed W (w.heap.size + 2) 27 (.slice (some ⟨b, o, none⟩) L C) ∧ Boxed W (w.heap.size + 3) 3 (.int .i64 (m : Int)) ∧ k * m < L ∧ Below w.heap.size w W)
    (fun (k : Nat) W => (∃ u, Boxed W (w.heap.size + 1) 52 u ∧ W.ownsRow w.heap.size 55 4 u (k + 1) (feCells (pcL m s zs b o L (k + 1))) ∧ True) ∧ Boxed W w.heap.size 3 (.int .i64 s) ∧ Boxed W (w.heap.size + 2) 27 (.slice (some ⟨b, o, none⟩) L C) ∧ Boxed W (w.heap.size + 3) 3 (.int .i64 (m : Int)) ∧ k * m < L ∧ Below w.heap.size w W)
    (fun _ _ _ => False)
    (fun (_ : Nat) W => (∃ u, Boxed W (w.heap.size + 1) 52 u ∧ W.ownsRow w.heap.size 55 4 u n (feCells (pcL m s zs b o L n)) ∧ True) ∧ Below w.heap.size w W)
    (fun W => (∃ u, Boxed W (w.heap.size + 1) 52 u ∧ W.ownsRow w.heap.size 55 4 u 0 (feCells (pcL m s zs b o L 0)) ∧ True) ∧ Boxed W w.heap.size 3 (.int .i64 s) ∧ Boxed W (w.heap.size + 2) 27 (.slice (some ⟨b, o, none⟩) L C) ∧ Boxed W (w.heap.size + 3) 3 (.int .i64 (m : Int)) ∧ True ∧ Below w.heap.size w W)
    (chunk_iter 3 _ (w.heap.size + 2) (w.heap.size + 3) b o L C m (by decide) hL hC hm1.1 hm1.2 _ _ _ _ _
      (fun W h => ⟨h.2.2.1, h.2.2.2.1, fun h0 => ⟨h.1, h.2.1, h.2.2.1, h.2.2.2.1, by rw [Nat.zero_mul]; exact h0, h.2.2.2.2.2⟩, fun h0 => ⟨by rw [HN0.out h0]; exact h.1, h.2.2.2.2.2⟩⟩)
      (fun k W h => ⟨h.1, h.2.1, h.2.2.1, h.2.2.2.1, h.2.2.2.2.1, h.2.2.2.2.2.drew⟩)
      (fun k W h => ⟨h.2.2.1, h.2.2.2.1⟩)
      (fun k W h => ⟨h.2.2.1, h.2.2.2.1, fun h0 => ⟨h.1, h.2.1, h.2.2.1, h.2.2.2.1, h0, h.2.2.2.2.2⟩, fun h0 => ⟨by rw [HN.out k h.2.2.2.2.1 h0]; exact h.1, h.2.2.2.2.2⟩⟩))
    (OwnFrom.and (Own.from (holdsRow_own w.heap.size (w.heap.size + 1) 52 55 4 (fun k : Nat => k) (fun k : Nat => feCells (pcL m s zs b o L k)) (fun _ _ => True)) _) (OwnFrom.and (Own.from (boxed_own _ _ (fun k : Nat => .int .i64 s)) _) (OwnFrom.and (Own.from (boxed_own _ _ (fun k : Nat => .slice (some ⟨b, o, none⟩) L C)) _) (OwnFrom.and (Own.from (boxed_own _ _ (fun k : Nat => .int .i64 (m : Int))) _) (OwnFrom.and (ownFrom_pure _ (fun k : Nat => k * m < L)) (ownFrom_below (Nat.le_refl _) (by omega)))))))
    (OwnFrom.and (Own.from (holdsRow_own w.heap.size (w.heap.size + 1) 52 55 4 (fun k : Nat => (k + 1)) (fun k : Nat => feCells (pcL m s zs b o L (k + 1))) (fun _ _ => True)) _) (OwnFrom.and (Own.from (boxed_own _ _ (fun k : Nat => .int .i64 s)) _) (OwnFrom.and (Own.from (boxed_own _ _ (fun k : Nat => .slice (some ⟨b, o, none⟩) L C)) _) (OwnFrom.and (Own.from (boxed_own _ _ (fun k : Nat => .int .i64 (m : Int))) _) (OwnFrom.and (ownFrom_pure _ (fun k : Nat => k * m < L)) (ownFrom_below (Nat.le_refl _) (by omega)))))))
    (fun c s W W' row hs hg hr => hs)
    (OwnFrom.and (Own.from (holdsRow_own w.heap.size (w.heap.size + 1) 52 55 4 (fun k : Nat => n) (fun k : Nat => feCells (pcL m s zs b o L n)) (fun _ _ => True)) _) (ownFrom_below (Nat.le_refl _) (by omega)))
    (OwnFrom.and (Own.from (holdsRow_own w.heap.size (w.heap.size + 1) 52 55 4 (fun _ : Unit => 0) (fun _ : Unit => feCells (pcL m s zs b o L 0)) (fun _ _ => True)) _) (OwnFrom.and (Own.from (boxed_own _ _ (fun _ : Unit => .int .i64 s)) _) (OwnFrom.and (Own.from (boxed_own _ _ (fun _ : Unit => .slice (some ⟨b, o, none⟩) L C)) _) (OwnFrom.and (Own.from (boxed_own _ _ (fun _ : Unit => .int .i64 (m : Int))) _) (OwnFrom.and (ownFrom_pure _ (fun _ : Unit => True)) (ownFrom_below (Nat.le_refl _) (by omega)))))))
    HI0.out ?frame ?assign ?body ?done ?stop
  case assign =>
    intro l s W K hK
    gi_wp2
    exact hK
  case body =>
    rintro l k W ⟨⟨u, hu, hrow, _⟩, hbI, hbS, hbN, hk, hB⟩
    have hkn : k < n := HNl.out k hk
    have hc := hu.cell
    have hcI := hbI.cell
    have hszW := hB.size
    obtain ⟨A0, hA0⟩ : ∃ A0, pcAt o m k = A0 := ⟨_, rfl⟩
    obtain ⟨pl, hpl⟩ : ∃ pl, pcLen m L k = pl := ⟨_, rfl⟩
    have HE2 : Hid (feCells (pcL m s zs b o L k) ++ [.int .i64 0, .int .i64 0, .int .i64 s, .slice (some ⟨b, A0, none⟩) pl pl] = feCells (pcL m s zs b o L (k + 1))) := by
      show _ = _
      rw [pcL_succ, ← hA0, ← hpl]
      rfl
    have HN2 : Hid (∀ j u, ([.int .i64 0, .int .i64 0, .int .i64 s, .slice (some ⟨b, A0, none⟩) pl pl] : List Value)[j]? = some u → (W.alloc (.cells #[.int .i64 0, .int .i64 0, .int .i64 s, .slice (some ⟨b, A0, none⟩) pl pl] 55)).cell? ((⟨W.heap.size, 0, none⟩ : Addr).add j) = some u) := fe_new W s (some ⟨b, A0, none⟩) pl pl
    have HO2 : Hid (∀ u ∈ ([.int .i64 0, .int .i64 0, .int .i64 s, .slice (some ⟨b, A0, none⟩) pl pl] : List Value), u.oneCell' = true) := fe_one s (some ⟨b, A0, none⟩) pl pl
    simp only [hA0, hpl]
    gi_wp2_with (gi_at_builtin; refine wpListIn_append_own _ rfl _ _ 52 rfl w.heap.size 55 i0 (.agg #[.int .i64 0, .int .i64 0, .int .i64 0, .slice none 0 0]) 4 48 Tryz.underlying52 hi hz0 hz1 hz2 rfl (by decide) _ _ _ rfl (hrow.alloc _) ⟨W.heap.size, 0, none⟩ 1 1 [.int .i64 0, .int .i64 0, .int .i64 s, .slice (some ⟨b, A0, none⟩) pl pl] rfl rfl HN2.out HO2.out (by unfold maxLen; omega) (by omega) (by simp; omega) ?_; intro v' w1 hown' hgrow _; obtain ⟨g', cap', rfl⟩ := ownsRow_succ hown'; obtain ⟨hv1, hv2, hr2, hk2, hb2⟩ := hu.appended (by decide) hrow hB.size (by omega) hown' hgrow; have hc1 := hv1.cell; have hf1 := hv1.frozen)
    have hI2 := ((hbI.alloc (.cells #[.int .i64 0, .int .i64 0, .int .i64 s, .slice (some ⟨b, A0, none⟩) pl pl] 55)).kept hgrow (hbI.not_row (by decide) hrow)).other (B' := w.heap.size + 1) (by omega) (.slice (some ⟨g', 0, none⟩) (k + 1) cap')
    have hS2 := ((hbS.alloc (.cells #[.int .i64 0, .int .i64 0, .int .i64 s, .slice (some ⟨b, A0, none⟩) pl pl] 55)).kept hgrow (hbS.not_row (by decide) hrow)).other (B' := w.heap.size + 1) (by omega) (.slice (some ⟨g', 0, none⟩) (k + 1) cap')
    have hN2 := ((hbN.alloc (.cells #[.int .i64 0, .int .i64 0, .int .i64 s, .slice (some ⟨b, A0, none⟩) pl pl] 55)).kept hgrow (hbN.not_row (by decide) hrow)).other (B' := w.heap.size + 1) (by omega) (.slice (some ⟨g', 0, none⟩) (k + 1) cap')
    rw [HE2.out] at hr2
    exact ⟨hk2.from _, ⟨_, hv2, hr2, trivial⟩, hI2, hS2, hN2, hk, hB.trans hb2⟩
  case done =>
    rintro D k W hD ⟨⟨u, hu, hrow, _⟩, hB⟩ hK
    have HB : Hid (Below w.heap.size w W) := hB
    have HK : Hid (W.heap[D]? = some (.deferred (some []))) := hK
    have hc := hu.cell
    by_cases h0 : n = 0
    · subst h0
      obtain ⟨ua, uc, rfl⟩ : ∃ ua uc, u = .slice ua 0 uc := by
        rcases hrow.2 with ⟨rfl, _⟩ | ⟨g, cap, cur, rfl, _⟩
        · exact ⟨_, _, rfl⟩
        · exact ⟨_, _, rfl⟩
      clear hrow hB hK
      dsimp only
      go_wp2_with fail
      refine ⟨by simp, .inl ⟨_, _, rfl, run_takeDeferred HK.out, ?_⟩⟩
      have hbw : Below w.heap.size w (W.putObj D (.deferred none)) := HB.out.grown (grownBy_putObj' _ D _) HB.out.size (fun q e => by injection e with e; omega)
      refine ⟨_, results_tmp rfl _ _ _, ⟨ua, uc, [], rfl, ⟨rfl, .inl rfl, by simp⟩, ?_⟩, hbw⟩
      rw [dataL, HZl.out, HNn.out]
      rfl
    obtain ⟨P, hP⟩ : ∃ P, n = P + 1 := ⟨n - 1, by omega⟩
    rw [hP] at hrow
    obtain ⟨g, cap, rfl⟩ := ownsRow_succ hrow
    have HP : Hid (pd m L = P + 1) := by show _ = _; rw [HNn.out, hP]
    have hgD : g ≠ D := fun e => row_is_cells hrow (r := D) hK rfl (by rw [← e]; rfl)
    have hgb : g ≠ w.heap.size + 1 := fun e => hu.not_row (by decide) hrow (by rw [← e]; rfl)
    have hgw : w.heap.size ≤ g := (hrow.lt g rfl).1
    have hst := hrow.stored (P * 4 + 1) (.int .i64 1)
    have hf0 : W.frozen? ⟨g, P * 4 + 1, none⟩ = false := hrow.frozenAt _
    obtain ⟨u0, hu0⟩ : ∃ u, W.cell? ⟨g, P * 4 + 1, none⟩ = some u := by
      have hl := hrow.1
      rw [hrow.cellAt _ (by omega)]
      exact ⟨_, List.getElem?_eq_getElem (by omega)⟩
    have HR7 : Hid ((W.setCell ⟨g, P * 4 + 1, none⟩ (.int .i64 1)).ownsRow w.heap.size 55 4 (.slice (some ⟨g, 0, none⟩) (P + 1) cap) (P + 1) (feCells (pcL m s zs b o L P ++ [{ pcE m s zs b o L P with f := 1 }]))) := by
      have h1 := hst.1
      rw [pcL_next] at h1
      have h2 := feCells_flag (pcL m s zs b o L P) (pcE m s zs b o L P) [] 1
      rw [pcL_len] at h2
      rw [h2] at h1
      exact h1
    have HB7 : Hid (Below w.heap.size w (W.setCell ⟨g, P * 4 + 1, none⟩ (.int .i64 1))) := hB.setCell (p := ⟨g, P * 4 + 1, none⟩) hgw _
    have HD7 : Hid ((W.setCell ⟨g, P * 4 + 1, none⟩ (.int .i64 1)).heap[D]? = some (.deferred (some []))) := (set_block_ne W D g (P * 4 + 1) _ (Ne.symm hgD)).trans hK
    have c7 : (W.setCell ⟨g, P * 4 + 1, none⟩ (.int .i64 1)).cell? ⟨w.heap.size + 1, 0, none⟩ = some (.slice (some ⟨g, 0, none⟩) (P + 1) cap) := Boxed.cell (show Boxed _ (w.heap.size + 1) 52 (.slice (some ⟨g, 0, none⟩) (P + 1) cap) from (set_block_ne W (w.heap.size + 1) g (P * 4 + 1) _ (Ne.symm hgb)).trans hu)
    have HSW : Hid (∀ W', Below w.heap.size w W' → ∀ e ∈ pcL m s zs b o L P ++ [{ pcE m s zs b o L P with f := 1 }], Seg W' e.a e.n e.zs) := fun W' hb e he => by
      have h1 := pcL_seg (HS.out.below hb) s (k := P + 1) (m := m) (by rw [HP.out]; exact Nat.le_refl _) hm1.1
      rw [pcL_next] at h1
      rcases List.mem_append.1 he with h | h
      · exact h1 e (List.mem_append_left _ h)
      · obtain rfl := List.mem_singleton.1 h
        exact h1 (pcE m s zs b o L P) (List.mem_append_right _ (List.mem_singleton.2 rfl))
    have hPe : ((P + 1 : Nat) : Int) - 1 = (P : Int) := by omega
    have hPi : (0 : Int) < ((P + 1 : Nat) : Int) := by omega
    have hPb : (P : Int) ≤ 1048577 := by omega
    subst hP
    clear hrow hB hK hst
    dsimp only
    go_wp2_with fail
    refine ⟨by simp, .inl ⟨_, _, rfl, run_takeDeferred HD7.out, ?_⟩⟩
    have hbw : Below w.heap.size w ((W.setCell ⟨g, P * 4 + 1, none⟩ (.int .i64 1)).putObj D (.deferred none)) := HB7.out.grown (grownBy_putObj' _ D _) HB7.out.size (fun q e => by injection e with e; omega)
    exact ⟨_, results_tmp rfl _ _ _, ⟨some ⟨g, 0, none⟩, cap, _, rfl, FrIn.ofRow (ownsRow_putObj HR7.out _ HD7.out rfl) (HSW.out _ hbw), pcL_data HZl.out HP.out⟩, hbw⟩
  case stop =>
    rintro D c s W hD h
    exact h.elim

end Go.Proofs.YtbaijmkghgnleaaGreatDoor

namespace Go.Proofs.YtbaijmkghgnleaaGreatDoor
open Go.RowKit
set_option linter.unusedVariables false

theorem row_own {w : World} {g n c : Nat} {cur : List Value} {base : Nat} (h : w.heap[g]? = some (.cells cur.toArray 5 (0, 0))) (hb : base ≤ g) (hl : cur.length = c) (hn : n ≤ c) (hc : c ≤ maxLen) : w.ownsRow base 5 1 (.slice (some ⟨g, 0, none⟩) n c) n (cur.take n) :=
  ⟨by simp; omega, .inr ⟨g, c, cur.toArray, rfl, hb, h, hn, hc, by simpa using hl, by simp⟩⟩

/-- 'copy' of bytes into a row of the call's own, at a place. -/
theorem copy_at (w1 : World) (g o dLen dCap len : Nat) (sa : Option Addr) (cap : Nat) (zs cur : List Int) (hs : Seg w1 sa len zs) (hg : w1.heap[g]? = some (.cells (cur.map (Value.int .u8)).toArray 5 (0, 0))) (hd : len ≤ dLen) (hfit : o + len ≤ cur.length) :
    ∃ w2, (Builtin.copy_ #[27, 27] 3 #[.slice (some ⟨g, o, none⟩) dLen dCap, .slice sa len cap]).run Tryz.prog w1 = .ok (.int .i64 len) w2 ∧
      w2.heap[g]? = some (.cells ((cur.take o ++ zs ++ cur.drop (o + len)).map (Value.int .u8)).toArray 5 (0, 0)) ∧ Below g w1 w2 ∧ w1.grownBy w2 (some g) := by
  obtain ⟨i0, hi, hz0, hz1, hz2⟩ := info_parts Tryz.info5
  have hzl : zs.length = len := hs.1
  rcases hs.2.2 with h | ⟨b, off, rfl, _⟩
  · subst h
    obtain rfl : zs = [] := List.eq_nil_of_length_eq_zero hs.1
    refine ⟨w1, ?_, by simpa using hg, Below.refl _ _, ⟨rfl, rfl, rfl, Nat.le_refl _, fun _ _ _ => rfl⟩⟩
    cases sa with
    | none => simp [Builtin.copy_, run_underlying Tryz.underlying27, sizeOf, typeInfo, hi, Builtin.lenOf, Builtin.firstCells, storeCells, goInt]
    | some ad => simp [Builtin.copy_, run_underlying Tryz.underlying27, sizeOf, typeInfo, hi, Builtin.lenOf, Builtin.firstCells, loadCells, loadCellsFrom, storeCells, goInt]
  · have hr := run_copy_row (P := Tryz.prog) w1 27 27 3 5 g o dLen dCap ⟨b, off, none⟩ len cap _ 5 (zs.map (Value.int .u8)) Tryz.underlying27 (by rw [hi]; simp [hz1]) hg (by rw [List.length_map, hzl]; exact (Nat.min_eq_left hd).symm) (cells_ints hs) (by simp [hzl]; omega) (ints_one zs)
    refine ⟨w1.setRow g ((cur.take o ++ zs ++ cur.drop (o + len)).map (Value.int .u8)).toArray, ?_, setRow_heap w1 g _ _ 5 _ hg, below_setRow (Below.refl _ _) (Nat.le_refl _) _, ⟨rfl, rfl, rfl, by simp, fun k _ hk => setRow_other w1 g k _ (fun e => hk (by simp [e]))⟩⟩
    rw [hr]
    simp [goInt, hzl, List.map_take, List.map_drop]

end Go.Proofs.YtbaijmkghgnleaaGreatDoor

namespace Go.Proofs.YtbaijmkghgnleaaGreatDoor
open Go.RowKit
set_option linter.unusedVariables false

theorem put_to (sa : Option Addr) (len cap n k m : Nat) (zs : List Int) (w : World) (hs : Seg w sa len zs) (hl : len ≤ 1099511627776) (hn : n ≤ 9223372036854775807) (h1 : 1 ≤ k) (h8 : k ≤ 8) (hm : len + k = m) :
    Calls Tryz.prog 89 #[.slice sa len cap, .int .i64 n, .int .i64 k] w fun e w' => ∃ a' cap', e = .returned (.slice a' m cap') ∧ Owns w' w.heap.size a' m cap' (zs ++ pbl n k k) ∧ Below w.heap.size w w' := by
  subst hm
  exact implPut_yes sa len cap n k zs w hs hl hn h1 h8

set_option maxHeartbeats 800000 in
theorem implHead_any (K F S : Nat) (a : Option Addr) (len cap : Nat) (w : World) (hl : len ≤ 1000) (hK : K ≤ 255) (hF : F ≤ 255) (hS : S ≤ 2147483647) :
    Calls Tryz.prog 79 #[.agg #[.int .i64 K, .int .i64 F, .int .i64 S, .slice a len cap]] w fun e w' => ∃ a' cap', e = .returned (.slice a' 9 cap') ∧ Owns w' w.heap.size a' 9 cap' (headB K F S len) ∧ Below w.heap.size w w' := by
  have HB0 : Hid (Below w.heap.size w (w.alloc (.cells #[.int .i64 K, .int .i64 F, .int .i64 S, .slice a len cap] 55))) := (Below.refl _ _).alloc (Nat.le_refl _) _
  go_enter Tryz.func79, Tryz.ntmps79
  go_wp2_with fail
  refine (put_to none 0 0 len 3 3 [] _ ⟨rfl, by simp, .inl rfl⟩ (by omega) (by omega) (by omega) (by omega) rfl).mono ?_
  rintro e x1 ⟨a1, c1, rfl, ho1, hb1⟩
  have HB1 : Hid (Below w.heap.size w x1) := HB0.out.trans (hb1.mono HB0.out.size)
  have HX1 : Hid (Box4 x1 w.heap.size 55 (.int .i64 K) (.int .i64 F) (.int .i64 S) (.slice a len cap)) := (Box4.new _ _ _ _ _ _).stays hb1
  have HO1 : Hid (Seg x1 a1 3 ([] ++ pbl len 3 3)) := ho1.seg
  clear ho1 hb1
  obtain ⟨q0, q1, q2, q3⟩ := HX1.out.cells
  go_wp2_with fail
  refine (put_to a1 3 c1 K 1 4 _ _ HO1.out (by omega) (by omega) (by omega) (by omega) rfl).mono ?_
  rintro e x2 ⟨a2, c2, rfl, ho2, hb2⟩
  have HB2 : Hid (Below w.heap.size w x2) := HB1.out.trans (hb2.mono HB1.out.size)
  have HX2 : Hid (Box4 x2 w.heap.size 55 (.int .i64 K) (.int .i64 F) (.int .i64 S) (.slice a len cap)) := HX1.out.stays hb2
  have HO2 : Hid (Seg x2 a2 4 ([] ++ pbl len 3 3 ++ pbl K 1 1)) := ho2.seg
  clear ho2 hb2 q0 q1 q2 q3
  obtain ⟨q0, q1, q2, q3⟩ := HX2.out.cells
  go_wp2_with fail
  refine (put_to a2 4 c2 F 1 5 _ _ HO2.out (by omega) (by omega) (by omega) (by omega) rfl).mono ?_
  rintro e x3 ⟨a3, c3, rfl, ho3, hb3⟩
  have HB3 : Hid (Below w.heap.size w x3) := HB2.out.trans (hb3.mono HB2.out.size)
  have HX3 : Hid (Box4 x3 w.heap.size 55 (.int .i64 K) (.int .i64 F) (.int .i64 S) (.slice a len cap)) := HX2.out.stays hb3
  have HO3 : Hid (Seg x3 a3 5 ([] ++ pbl len 3 3 ++ pbl K 1 1 ++ pbl F 1 1)) := ho3.seg
  clear ho3 hb3 q0 q1 q2 q3
  obtain ⟨q0, q1, q2, q3⟩ := HX3.out.cells
  go_wp2_with fail
  refine (put_to a3 5 c3 S 4 9 _ _ HO3.out (by omega) (by omega) (by omega) (by omega) rfl).mono ?_
  rintro e x4 ⟨a4, c4, rfl, ho4, hb4⟩
  have HB4 : Hid (Below w.heap.size w x4) := HB3.out.trans (hb4.mono HB3.out.size)
  have HO4 : Hid (Owns x4 w.heap.size a4 9 c4 (headB K F S len)) := ho4.low HB3.out.size
  clear ho4 hb4 q0 q1 q2 q3
  go_wp2_with fail
  go_ret
  exact ⟨_, _, rfl, HO4.out, HB4.out⟩

set_option maxRecDepth 10000 in
set_option maxHeartbeats 800000 in
theorem implPutF_yes (K F S : Nat) (a : Option Addr) (len cap M : Nat) (zs : List Int) (w : World) (hs : Seg w a len zs) (hl : len ≤ 1000) (hK : K ≤ 255) (hF : F ≤ 255) (hS : S ≤ 2147483647) (hM : M = 9 + len) :
    Calls Tryz.prog 62 #[.agg #[.int .i64 K, .int .i64 F, .int .i64 S, .slice a len cap]] w fun e w' => ∃ a' cap', e = .returned (.slice a' M cap') ∧ Owns w' w.heap.size a' M cap' (headB K F S len ++ zs) ∧ Below w.heap.size w w' := by
  obtain ⟨i0, hi, hz0, hz1, hz2⟩ := info_parts Tryz.info5
  have hzl : zs.length = len := hs.1
  have HS : Hid (Seg w a len zs) := hs
  have HB0 : Hid (Below w.heap.size w (w.alloc (.cells #[.int .i64 K, .int .i64 F, .int .i64 S, .slice a len cap] 55))) := (Below.refl _ _).alloc (Nat.le_refl _) _
  have HOk : Hid (okF K F S len = true) := decide_eq_true ⟨⟨by omega, by omega⟩, ⟨by omega, by omega⟩, ⟨by omega, by omega⟩, hl⟩
  have HM : Hid (M = 9 + len) := hM
  have hM9 : (9 : Int) ≤ (M : Int) := by omega
  clear hs hM
  go_enter Tryz.func62, Tryz.ntmps62
  go_wp2_with fail
  refine (implFrOk_any K F S a len cap _).mono ?_
  rintro e x1 ⟨rfl, hb1⟩
  rw [HOk.out]
  have HB1 : Hid (Below w.heap.size w x1) := HB0.out.trans (hb1.mono HB0.out.size)
  have HX1 : Hid (Box4 x1 w.heap.size 55 (.int .i64 K) (.int .i64 F) (.int .i64 S) (.slice a len cap)) := (Box4.new _ _ _ _ _ _).stays hb1
  clear hb1
  obtain ⟨q0, q1, q2, q3⟩ := HX1.out.cells
  go_wp2_with (first | (at_make; refine wpList_make_room _ rfl _ _ 27 rfl 5 i0 (.int .u8 0) Tryz.underlying27 hi hz0 hz1 rfl hz2 _ _ _ _ M M rfl rfl (by have := HM.out; omega) (by have := HM.out; omega) (by omega) (by have := HM.out; omega) ?_; intro x2 hg2 hb2; refine Hid.out ?_))
  refine hidden ?_
  have HB2 : Hid (Below w.heap.size w x2) := HB1.out.trans (hb2.mono HB1.out.size)
  have HX2 : Hid (Box4 x2 w.heap.size 55 (.int .i64 K) (.int .i64 F) (.int .i64 S) (.slice a len cap)) := HX1.out.stays hb2
  have HG2 : Hid (x2.heap[x1.heap.size]? = some (.cells ((List.replicate M (0 : Int)).map (Value.int .u8)).toArray 5 (0, 0))) := by
    show _ = _
    rw [List.map_replicate]
    exact hg2
  have hg1 : x1.heap.size < x2.heap.size := (Array.getElem?_eq_some_iff.1 hg2).1
  have HLo : Hid (w.heap.size < x1.heap.size ∧ x1.heap.size < x2.heap.size) := ⟨HX1.out.lt, hg1⟩
  generalize x1.heap.size = g at *
  clear hg2 hb2 q0 q1 q2 q3 hg1 HX1 HB1
  obtain ⟨q0, q1, q2, q3⟩ := HX2.out.cells
  go_wp2_with fail
  refine (implHead_any K F S a len cap _ hl hK hF hS).mono ?_
  rintro e x3 ⟨a3, c3, rfl, ho3, hb3⟩
  have HB3 : Hid (Below w.heap.size w x3) := HB2.out.trans (hb3.mono HB2.out.size)
  have HX3 : Hid (Box4 x3 w.heap.size 55 (.int .i64 K) (.int .i64 F) (.int .i64 S) (.slice a len cap)) := HX2.out.stays hb3
  have hg3 : x3.heap[g]? = some (.cells ((List.replicate M (0 : Int)).map (Value.int .u8)).toArray 5 (0, 0)) := (hb3.block g HLo.out.2).trans HG2.out
  obtain ⟨x4, hrun4, hg4, hb4, hgr4⟩ := copy_at x3 g 0 M M 9 a3 c3 (headB K F S len) (List.replicate M (0 : Int)) ho3.seg hg3 (by omega) (by simp; omega)
  have HB4 : Hid (Below w.heap.size w x4) := HB3.out.trans (hb4.mono (Nat.le_of_lt HLo.out.1))
  have HX4 : Hid (Box4 x4 w.heap.size 55 (.int .i64 K) (.int .i64 F) (.int .i64 S) (.slice a len cap)) := HX3.out.grown hgr4 (fun e => by injection e with e; have := HLo.out.1; omega)
  have HG4 : Hid (x4.heap[g]? = some (.cells ((headB K F S len ++ List.replicate len (0 : Int)).map (Value.int .u8)).toArray 5 (0, 0))) := by
    show _ = _
    rw [hg4]
    simp [HM.out]
  clear hg3 hg4 hb3 ho3 hb4 hgr4 q0 q1 q2 q3 HX2 HX3 HB2 HG2
  obtain ⟨q0, q1, q2, q3⟩ := HX4.out.cells
  go_wp2_with fail
  clear hrun4
  by_cases h0 : len = 0
  · subst h0
    obtain rfl : M = 9 := by have := HM.out; omega
    obtain rfl : zs = [] := List.eq_nil_of_length_eq_zero hzl
    obtain ⟨x5, hrun5, hg5, hb5, hgr5⟩ := copy_at x4.drew g 0 0 0 0 a cap [] (headB K F S 0 ++ List.replicate 0 (0 : Int)) (HS.out.below HB4.out.drew) HG4.out (by omega) (by simp)
    go_region_with fail
    have HO5 : Hid (Owns x5 w.heap.size (some ⟨g, 0, none⟩) 9 9 (headB K F S 0 ++ [])) := by
      have h := own_of_row hg5 (base := w.heap.size) (Nat.le_of_lt HLo.out.1) (n := 9) (c := 9) (by simp [headB_len]) (by omega) (by unfold maxLen; omega)
      refine ⟨?_, by simpa using headB_range K F S 0⟩
      rw [List.take_of_length_le (by simp [headB_len])] at h
      simpa using h
    have HB5 : Hid (Below w.heap.size w x5) := HB4.out.drew.trans (hb5.mono (Nat.le_of_lt HLo.out.1))
    clear hrun5 hg5 hb5 hgr5 q0 q1 q2 q3
    go_wp2_with fail
    go_ret
    exact ⟨_, _, rfl, HO5.out, HB5.out⟩
  obtain ⟨x5, hrun5, hg5, hb5, hgr5⟩ := copy_at x4.drew g 9 len len len a cap zs (headB K F S len ++ List.replicate len (0 : Int)) (HS.out.below HB4.out.drew) HG4.out (by omega) (by simp [headB_len])
  have hMl : M - 9 = len := by have := HM.out; omega
  have hMn : ¬ M = 9 := by have := HM.out; omega
  go_region_with fail
  have HO5 : Hid (Owns x5 w.heap.size (some ⟨g, 0, none⟩) M M (headB K F S len ++ zs)) := by
    have hM := HM.out
    have hcur : List.take 9 (headB K F S len ++ List.replicate len 0) ++ zs ++ List.drop (9 + len) (headB K F S len ++ List.replicate len 0) = headB K F S len ++ zs := by
      rw [List.take_append_of_le_length (by simp [headB_len]), List.take_of_length_le (by simp [headB_len]), List.drop_of_length_le (by simp [headB_len]), List.append_nil]
    rw [hcur] at hg5
    have h := own_of_row hg5 (base := w.heap.size) (Nat.le_of_lt HLo.out.1) (n := M) (c := M) (by simp [headB_len, hzl]; omega) (by omega) (by unfold maxLen; omega)
    rw [List.take_of_length_le (by simp [headB_len, hzl]; omega)] at h
    refine ⟨h, fun x hx => ?_⟩
    rcases List.mem_append.1 hx with hx | hx
    · exact headB_range K F S len x hx
    · exact HS.out.2.1 x hx
  have HB5 : Hid (Below w.heap.size w x5) := HB4.out.drew.trans (hb5.mono (Nat.le_of_lt HLo.out.1))
  clear hrun5 hg5 hb5 hgr5 q0 q1 q2 q3
  go_wp2_with fail
  go_ret
  exact ⟨_, _, rfl, HO5.out, HB5.out⟩

set_option maxHeartbeats 800000 in
theorem implPutF_no (k f s : Int) (a : Option Addr) (len cap : Nat) (w : World) (h : okF k f s len = false) :
    Calls Tryz.prog 62 #[.agg #[.int .i64 k, .int .i64 f, .int .i64 s, .slice a len cap]] w fun e w' => ∃ a' cap', e = .returned (.slice a' 0 cap') ∧ Owns w' w.heap.size a' 0 cap' [] ∧ Below w.heap.size w w' := by
  have HB0 : Hid (Below w.heap.size w (w.alloc (.cells #[.int .i64 k, .int .i64 f, .int .i64 s, .slice a len cap] 55))) := (Below.refl _ _).alloc (Nat.le_refl _) _
  have HOk : Hid (okF k f s len = false) := h
  clear h
  go_enter Tryz.func62, Tryz.ntmps62
  go_wp2_with fail
  refine (implFrOk_any k f s a len cap _).mono ?_
  rintro e x1 ⟨rfl, hb1⟩
  rw [HOk.out]
  have HB1 : Hid (Below w.heap.size w x1) := HB0.out.trans (hb1.mono HB0.out.size)
  clear hb1
  go_wp2_with fail
  go_ret
  exact ⟨_, _, rfl, ⟨World.ownsRow_lit _ #[] 0 HB1.out.size (Nat.zero_le _) rfl, by simp⟩, HB1.out.alloc HB1.out.size _⟩

theorem implPutFr_any (k f s : Int) (a : Option Addr) (len cap : Nat) (zs : List Int) (w : World) (hs : Seg w a len zs) :
    Calls Tryz.prog 62 #[.agg #[.int .i64 k, .int .i64 f, .int .i64 s, .slice a len cap]] w fun e w' => ∃ a' cap', e = .returned (.slice a' (putF k f s zs).length cap') ∧ Owns w' w.heap.size a' (putF k f s zs).length cap' (putF k f s zs) ∧ Below w.heap.size w w' := by
  have hz := hs.1
  cases h : okF k f s len with
  | false =>
    have e : putF k f s zs = [] := by unfold putF; rw [hz, h]; rfl
    rw [e]
    exact implPutF_no k f s a len cap w h
  | true =>
    have e : putF k f s zs = headB k.toNat f.toNat s.toNat len ++ zs := by unfold putF; rw [hz, h]; rfl
    have hy := okF_yes h
    obtain ⟨K, rfl⟩ := Int.eq_ofNat_of_zero_le hy.1.1
    obtain ⟨F, rfl⟩ := Int.eq_ofNat_of_zero_le hy.2.1.1
    obtain ⟨S, rfl⟩ := Int.eq_ofNat_of_zero_le hy.2.2.1.1
    rw [e, Int.toNat_natCast, Int.toNat_natCast, Int.toNat_natCast]
    exact implPutF_yes K F S a len cap _ zs w hs (by omega) (by omega) (by omega) (by omega) (by rw [List.length_append, headB_len, hz])

end Go.Proofs.YtbaijmkghgnleaaGreatDoor

namespace Go.Proofs.YtbaijmkghgnleaaGreatDoor
open Go.RowKit
set_option linter.unusedVariables false

set_option maxRecDepth 10000 in
set_option maxHeartbeats 3200000 in
theorem implPutFrs_any (a : Option Addr) (n c : Nat) (l : List FE) (w : World) (h : FrIn w a n l) (hn : n ≤ 1099511627776) (hB : (bytesF (l.map FE.data)).length ≤ 1099511627776) :
    Calls Tryz.prog 37 #[.slice a n c] w fun e w' => (∃ a' c', e = .returned (.slice a' (bytesF (l.map FE.data)).length c') ∧ Owns w' w.heap.size a' (bytesF (l.map FE.data)).length c' (bytesF (l.map FE.data))) ∧ Below w.heap.size w w' := by
  obtain ⟨i0, hi, hz0, hz1, hz2⟩ := info_parts Tryz.info5
  have HF : Hid (FrIn w a n l) := h
  have HBt : Hid ((bytesF (l.map FE.data)).length ≤ 1099511627776) := hB
  obtain ⟨w1, hw1⟩ : ∃ w1, w.alloc (.cells #[] 5) = w1 := ⟨_, rfl⟩
  have HE : Hid (w.alloc (.cells #[] 5) = w1) := hw1
  have HO1 : Hid (Owns w1 w.heap.size (some ⟨w.heap.size, 0, none⟩) 0 0 []) := by
    show Owns _ _ _ _ _ _
    rw [← hw1]
    exact ⟨World.ownsRow_lit w #[] 0 (Nat.le_refl _) (Nat.zero_le _) rfl, by simp⟩
  have HB1 : Hid (Below w.heap.size w w1) := by show Below _ _ _; rw [← hw1]; exact (Below.refl _ _).alloc (Nat.le_refl _) _
  clear hw1 h hB
  go_enter Tryz.func37, Tryz.ntmps37
  go_upto_region 2 with fail
  rw [HE.out]
  clear HE
  obtain ⟨g0, hg0⟩ : ∃ g0, w.heap.size = g0 := ⟨_, rfl⟩
  have HG : Hid (w.heap.size = g0) := hg0
  rw [hg0] at HO1 HB1 ⊢
  clear hg0
  go_wp2_with fail
  go_loopw [3, 9] (fun q i wr => ∃ (j g c' : Nat), j ≤ n ∧ i = .int .i64 (j : Int) ∧ q = .slice (some ⟨g, 0, none⟩) (bytesF ((l.map FE.data).take j)).length c' ∧ Hid (Owns wr g0 (some ⟨g, 0, none⟩) (bytesF ((l.map FE.data).take j)).length c' (bytesF ((l.map FE.data).take j))) ∧ Hid (Below g0 w wr)) (fun _ i _ => n - (intOf i).toNat)
  case atStart => exact ⟨0, g0, 0, Nat.zero_le _, rfl, rfl, HO1, HB1⟩
  case round =>
    clear HO1 HB1
    obtain ⟨j, g, c', hj, rfl, rfl, HO, HB⟩ := hrel
    have HFr : Hid (FrIn wr a n l) := HF.out.below (by rw [HG.out]; exact HB.out)
    by_cases hlt : j < n
    · obtain ⟨b, off, e, rfl, hb, hle, h1, h2, h3, h4, h5⟩ := HFr.out.at hlt
      have HS : Hid (Seg wr e.a e.n e.zs) := h5
      have HD : Hid ((l.map FE.data)[j]? = some (e.k, e.f, e.s, e.zs)) := by show _ = _; rw [List.getElem?_map, hle]; rfl
      obtain ⟨k, f, s, ea, en, ec, ez⟩ := e
      dsimp only at h1 h2 h3 h4 HS HD
      have hji : (j : Int) < (n : Int) := by omega
      have HT : Hid (bytesF ((l.map FE.data).take (j + 1)) = bytesF ((l.map FE.data).take j) ++ putF k f s ez) := bytesF_take _ _ _ HD.out
      have HL : Hid ((bytesF ((l.map FE.data).take j)).length + (putF k f s ez).length ≤ 1099511627776) := by
        have h7 := bytesF_take_le (l.map FE.data) (j + 1)
        have h8 := HBt.out
        rw [HT.out, List.length_append] at h7
        show _ ≤ _
        omega
      clear hle h5 HD
      generalize bytesF ((l.map FE.data).take j) = P at *
      obtain ⟨wb, hwb⟩ : ∃ wb, wr.alloc (.cells #[.int .i64 k, .int .i64 f, .int .i64 s, .slice ea en ec] 55) = wb := ⟨_, rfl⟩
      have HEb : Hid (wr.alloc (.cells #[.int .i64 k, .int .i64 f, .int .i64 s, .slice ea en ec] 55) = wb) := hwb
      have HBb : Hid (Below wr.heap.size wr wb) := by show Below _ _ _; rw [← hwb]; exact (Below.refl _ _).alloc (Nat.le_refl _) _
      have HQb : Hid (BoxN wb wr.heap.size 55 [.int .i64 k, .int .i64 f, .int .i64 s, .slice ea en ec]) := by show BoxN _ _ _ _; rw [← hwb]; exact BoxN.new _ _ _
      clear hwb
      have hbl : b < wr.heap.size := hb
      go_upto_region 5 with fail
      rw [HEb.out]
      clear HEb h1 h2 h3 h4
      obtain ⟨c0, c1, c2, c3⟩ := (show _ ∧ _ ∧ _ ∧ _ from ⟨BoxN.cell HQb.out 0 rfl, BoxN.cell HQb.out 1 rfl, BoxN.cell HQb.out 2 rfl, BoxN.cell HQb.out 3 rfl⟩)
      go_wp2_with fail
      refine (implPutFr_any k f s ea en ec ez wb (HS.out.below HBb.out)).mono ?_
      rintro e w2 ⟨a2, c2', rfl, ho2, hb2⟩
      have HC2 : Hid (Below g0 w w2) := (HB.out.trans ((HBb.out.trans (hb2.mono HBb.out.size)).mono (by have := HB.out.size; have := HG.out; omega)))
      have HO2 : Hid (Owns w2 g0 (some ⟨g, 0, none⟩) P.length c' P) := (HO.out.below HBb.out).below hb2
      have HR : Hid (∀ x ∈ P ++ putF k f s ez, 0 ≤ x ∧ x ≤ 255) := by
        intro x hx
        rcases List.mem_append.1 hx with h | h
        · exact HO.out.2 x h
        · exact ho2.2 x h
      obtain ⟨Q, hQ⟩ : ∃ Q, putF k f s ez = Q := ⟨_, rfl⟩
      rw [hQ] at ho2 HT HL HR ⊢
      obtain ⟨m, hm⟩ : ∃ m, Q.length = m := ⟨_, rfl⟩
      obtain ⟨p, hp⟩ : ∃ p, P.length = p := ⟨_, rfl⟩
      have HQl : Hid (Q.length = m ∧ P.length = p) := ⟨hm, hp⟩
      rw [hm] at ho2 HL ⊢
      rw [hp] at HO2 HL
      have HSrc : Hid (Src Tryz.prog 1 27 (.slice a2 m c2') m (Q.map (Value.int .u8)) w2) := by
        show Src _ _ _ _ _ _ _
        cases a2 with
        | none =>
          have h9 := seg_nil ho2.seg rfl
          subst h9
          obtain rfl : Q = [] := List.eq_nil_of_length_eq_zero hm
          exact Src.ofNil _ Tryz.underlying27 c2'
        | some ad => exact Src.ofSlice _ Tryz.underlying27 ad m c2' _ (by rw [List.length_map, hm]; omega) (seg_src ho2.seg ad rfl) (ints_one _)
      have hA : p + m ≤ maxLen := by have := HL.out; unfold maxLen; omega
      have hA2 : (p + m) * 1 ≤ 140737488355328 := by have := HL.out; omega
      have HBs : Hid (g0 ≤ w2.heap.size) := by have := HC2.out.size; have := HG.out; show _ ≤ _; omega
      clear ho2 hb2 hQ hm HO HB HBb HS
      rw [hp]
      clear hp
      go_wp2_with (at_builtin; refine wpList_append_got rfl _ _ 27 27 rfl g0 5 i0 (.int .u8 0) 1 1 Tryz.underlying27 hi hz0 hz1 hz2 rfl (by decide) g p c' (P.map (Value.int .u8)) rfl HO2.out.1 (.slice a2 m c2') m (Q.map (Value.int .u8)) rfl HSrc.out hA hA2 HBs.out ?_; intro g4 c4 w4 hown hgrow; refine Hid.out ?_)
      refine hidden ?_
      have HB4 : Hid (Below g0 w w4) := HC2.out.grown hgrow HBs.out (fun q e => by injection e with e; have := (HO2.out.lt g rfl).1; omega)
      have HO4 : Hid (Owns w4 g0 (some ⟨g4, 0, none⟩) (p + m) c4 (P ++ Q)) := by
        refine ⟨?_, HR.out⟩
        rw [List.map_append]
        exact hown
      clear hown hgrow HO2 HC2 HSrc HBs HR
      go_wp2_with fail
      go_roundw
      case rel => exact ⟨j + 1, g4, c4, by omega, by go_num, by rw [HT.out, List.length_append, HQl.out.1, HQl.out.2], by
        show Owns _ _ _ _ _ _
        rw [HT.out, List.length_append, HQl.out.1, HQl.out.2]
        exact HO4.out, HB4⟩
      case measure => simp [intOf]; omega
    · have hjn : j = n := by omega
      subst hjn
      have HAll : Hid ((l.map FE.data).take j = l.map FE.data) := List.take_of_length_le (by rw [List.length_map, HF.out.len]; exact Nat.le_refl _)
      rw [HAll.out] at HO ⊢
      go_wp2_with fail
      go_ret
      exact ⟨⟨_, _, rfl, by rw [HG.out]; exact HO.out⟩, by rw [HG.out]; exact HB.out⟩

end Go.Proofs.YtbaijmkghgnleaaGreatDoor
