/- The draws of a state and an event, and of a list of events: what is drawn lies in memory of its own. -/
import Derived.Test.YtcfinhepcpjcnadDoorDrawsC
import Derived.Test.YtcfinhepcpjcnadDoorIntRow
namespace Go.Proofs.YtcfinhepcpjcnadDoor
open Go.RowKit
set_option linter.unusedVariables false

set_option maxRecDepth 10000 in
set_option maxHeartbeats 800000 in
theorem drawStep_any (a : Option Addr) (len cap : Nat) (zs : List Int) (w : World) (hs : Seg w a len zs) (hl : len ≤ 1099511627776) :
    Calls Tryd.prog 16 #[.slice a len cap] w fun e w' => ∃ x y : Int, e = .returned (.tuple #[.int .i64 x, .int .i64 y]) ∧ Below w.heap.size w w' := by
  have HS : Hid (Seg w a len zs) := hs
  clear hs
  go_enter Tryd.func16, Tryd.ntmps16
  go_wp2_with fail
  refine (l1New_any a len cap zs w HS.out hl).mono ?_
  rintro e w1 ⟨rfl, hc1, hb1⟩
  have HB1 : Hid (Below w.heap.size w w1) := hb1
  have HC1 : Hid (Cur w1 w.heap.size w.heap.size a len cap zs) := hc1
  have hcl : w.heap.size < w1.heap.size := hc1.lt
  clear hc1 hb1
  go_wp2_with fail
  refine (l1Int_any _ _ a len cap zs w1.heap.size 10 10 [0, 1, 2, 3, 4, 5, -1, 1, 2, 3] _ (HC1.out.new _) hl (heap_alloc_new w1 _) (by omega) rfl (by omega) (by omega)).mono ?_
  rintro e w2 ⟨x, rfl, hx, hc2, hg2⟩
  have HC2 : Hid (Cur w2 w.heap.size w.heap.size a len cap zs) := hc2
  have HB2 : Hid (Below w.heap.size w w2) := (HB1.out.alloc HB1.out.size _).grown hg2 (by simp; omega) (fun k hk => by injection hk with hk; omega)
  clear hx hc2 hg2 HC1
  go_wp2_with fail
  refine (l1Below_any _ _ a len cap zs 12 w2 HC2.out hl (by omega) (by omega)).mono ?_
  rintro e w3 ⟨y, rfl, _, _, hc3, hg3⟩
  have HB3 : Hid (Below w.heap.size w w3) := HB2.out.grown hg3 HB2.out.size (fun k hk => by injection hk with hk; omega)
  clear hc3 hg3 HC2
  go_wp2_with fail
  go_ret2
  exact ⟨x, y, rfl, HB3.out⟩

theorem oneI (w : World) (x : Int) : ∀ j u, [Value.int .i64 x][j]? = some u → (w.alloc (.cells #[.int .i64 x] 3)).cell? ((⟨w.heap.size, 0, none⟩ : Addr).add j) = some u := by
  intro j u hj
  match j, hj with
  | 0, hj => simp at hj; subst hj; simp [Addr.add]

theorem oneCellI (x : Int) : ∀ u ∈ [Value.int .i64 x], u.oneCell' = true := by
  intro u hu
  simp at hu
  subst hu
  rfl

/-- What a draw of events keeps: the cursor, and the events so far in a row of the call's own. -/
def DE (w W : World) (B c : Nat) (a : Option Addr) (len cap : Nat) (zs : List Int) (g n cp : Nat) (l : List Int) : Prop :=
  Cur W B c a len cap zs ∧ w.grownBy W (some c) ∧ W.ownsRow w.heap.size 3 1 (.slice (some ⟨g, 0, none⟩) n cp) n (l.map (Value.int .i64))

theorem DE.new {w W : World} {B c : Nat} {a : Option Addr} {len cap : Nat} {zs : List Int} {g n cp : Nat} {l : List Int} (h : DE w W B c a len cap zs g n cp l) (o : Obj) : DE w (W.alloc o) B c a len cap zs g n cp l :=
  ⟨h.1.new o, gnew h.2.1 o, own_below h.2.2 ((Below.refl _ _).alloc (Nat.le_refl _) _)⟩

theorem DE.call {w W W' : World} {B c : Nat} {a : Option Addr} {len cap : Nat} {zs : List Int} {g n cp : Nat} {l : List Int} (h : DE w W B c a len cap zs g n cp l) (hc : Cur W' B c a len cap zs) (hg : W.grownBy W' (some c)) (hcw : c < w.heap.size) : DE w W' B c a len cap zs g n cp l :=
  ⟨hc, gtrans h.2.1 hg, h.2.2.kept hg (.inr (by
    have h1 := h.2.2.lt g rfl
    simp [Value.ownBlock]
    omega))⟩

theorem DE.app {w W W' : World} {B c : Nat} {a : Option Addr} {len cap : Nat} {zs : List Int} {g n cp : Nat} {l : List Int} (h : DE w W B c a len cap zs g n cp l) (hcw : c < w.heap.size) {v : Value} {x : Int}
    (ho : W'.ownsRow w.heap.size 3 1 v (n + 1) (l.map (Value.int .i64) ++ [.int .i64 x])) (hg : W.grownBy W' (some g)) : ∃ g' cp', v = .slice (some ⟨g', 0, none⟩) (n + 1) cp' ∧ DE w W' B c a len cap zs g' (n + 1) cp' (l ++ [x]) := by
  have hgl := h.2.2.lt g rfl
  rcases ho.2 with ⟨_, h0⟩ | ⟨g', cap', cur, he, hb, r⟩
  · omega
  · refine ⟨g', cap', he, h.1.kept hg (fun k hk => ?_), gown h.2.1 hg (fun k hk => ?_), ?_⟩
    · injection hk with hk
      have := h.1.1
      omega
    · injection hk with hk
      omega
    · rw [List.map_append, ← he]
      exact ho

set_option maxRecDepth 10000 in
set_option maxHeartbeats 1600000 in
theorem drawRun_any (a : Option Addr) (len cap : Nat) (zs : List Int) (w : World) (hs : Seg w a len zs) (hl : len ≤ 1099511627776) :
    Calls Tryd.prog 21 #[.slice a len cap] w fun e w' => ∃ (g n cp : Nat) (l : List Int), e = .returned (.slice (some ⟨g, 0, none⟩) n cp) ∧ n ≤ 6 ∧ SegI w' (some ⟨g, 0, none⟩) n l ∧ Below w.heap.size w w' := by
  obtain ⟨i0, hi, hz0, hz1, hz2⟩ := info_parts Tryd.info3
  have HS : Hid (Seg w a len zs) := hs
  clear hs
  go_enter Tryd.func21, Tryd.ntmps21
  go_wp2_with fail
  refine (l1New_any a len cap zs w HS.out hl).mono ?_
  rintro e w1 ⟨rfl, hc1, hb1⟩
  have HB1 : Hid (Below w.heap.size w w1) := hb1
  have HC1 : Hid (Cur w1 w.heap.size w.heap.size a len cap zs) := hc1
  have hcl : w.heap.size < w1.heap.size := hc1.lt
  clear hc1 hb1
  go_wp2_with fail
  refine (l1Int_any _ _ a len cap zs w1.heap.size 5 5 [1, 2, 6, 7, 3] _ (HC1.out.new _) hl (heap_alloc_new w1 _) (by omega) rfl (by omega) (by omega)).mono ?_
  rintro e w2 ⟨x, rfl, hx, hc2, hg2⟩
  have hsz2 : w1.heap.size ≤ w2.heap.size := by have := hg2.size; simp at this; omega
  have HD2 : Hid (DE w1 (w2.alloc (.cells #[.int .i64 x] 3)) w.heap.size w.heap.size a len cap zs w2.heap.size 1 1 [x]) := ⟨hc2.new _, gnew (gtrans (World.grownBy_alloc w1 _ _) hg2) _, World.ownsRow_lit w2 #[.int .i64 x] 1 hsz2 (by unfold maxLen; omega) rfl⟩
  clear hx hc2 hg2 HC1
  go_wp2_with fail
  refine (l1Below_any _ _ a len cap zs 6 _ HD2.out.1 hl (by omega) (by omega)).mono ?_
  rintro e w3 ⟨m, rfl, hm0, hm1, hc3, hg3⟩
  have HD3 : Hid (DE w1 w3 w.heap.size w.heap.size a len cap zs w2.heap.size 1 1 [x]) := HD2.out.call hc3 hg3 hcl
  obtain ⟨M, rfl⟩ := Int.eq_ofNat_of_zero_le hm0
  clear hc3 hg3 HD2
  go_wp2_with fail
  go_loopw [4, 5] (fun v i wr => ∃ (j g n cp : Nat) (l : List Int), i = .int .i64 (j : Int) ∧ v = .slice (some ⟨g, 0, none⟩) n cp ∧ n + j ≤ 6 ∧ Hid (DE w1 wr w.heap.size w.heap.size a len cap zs g n cp l)) (fun _ i _ => (intOf i).toNat)
  case atStart => exact ⟨M, w2.heap.size, 1, 1, [x], rfl, rfl, by omega, HD3⟩
  case round =>
    clear HD3
    obtain ⟨j, g, n, cp, l, rfl, rfl, hnj, HD⟩ := hrel
    by_cases hj : j = 0
    · subst hj
      go_wp2_with fail
      go_ret
      exact ⟨g, n, cp, l, rfl, by omega, SegI.ofOwn HD.out.2.2, HB1.out.grown HD.out.2.1 HB1.out.size (fun k hk => by injection hk with hk; omega)⟩
    · have hji : (0 : Int) < (j : Int) := by omega
      have hcwr : w.heap.size < wr.heap.size := HD.out.1.lt
      go_wp2_with fail
      refine (l1Int_any _ _ a len cap zs wr.heap.size 10 10 [3, 8, 4, 9, 2, 7, 5, 10, 1, 0] _ (HD.out.new _).1 hl (heap_alloc_new wr _) (by omega) rfl (by omega) (by omega)).mono ?_
      rintro e w4 ⟨y, rfl, hy, hc4, hg4⟩
      have HD4 : Hid (DE w1 w4 w.heap.size w.heap.size a len cap zs g n cp l) := (HD.out.new _).call hc4 hg4 hcl
      have hsz := HD4.out.2.1.size
      clear hy hc4 hg4 HD
      have HN2 : Hid (∀ j u, [Value.int .i64 y][j]? = some u → (w4.alloc (.cells #[.int .i64 y] 3)).cell? ((⟨w4.heap.size, 0, none⟩ : Addr).add j) = some u) := oneI w4 y
      go_wp2_with (at_builtin; refine wpList_append_own _ rfl _ _ 44 rfl w1.heap.size 3 i0 (.int .i64 0) 1 8 Tryd.underlying44 hi hz0 hz1 hz2 rfl (by decide) (.slice (some ⟨g, 0, none⟩) n cp) n _ rfl (HD4.out.new _).2.2 ⟨w4.heap.size, 0, none⟩ 1 1 [.int .i64 y] rfl rfl HN2.out (oneCellI y) (by unfold maxLen; omega) (by omega) (by simp; omega) ?_; intro v5 w5 hown5 hgrow5 _; refine Hid.out ?_)
      refine hidden ?_
      obtain ⟨g5, cp5, rfl, hd5⟩ := (HD4.out.new _).app hcl hown5 hgrow5
      have HD5 : Hid (DE w1 w5 w.heap.size w.heap.size a len cap zs g5 (n + 1) cp5 (l ++ [y])) := hd5
      clear hown5 hgrow5 hd5 HN2 HD4
      go_wp2_with fail
      go_roundw
      case rel => exact ⟨j - 1, g5, n + 1, cp5, l ++ [y], by go_num, rfl, by omega, HD5⟩
      case measure => simp [intOf]; omega

end Go.Proofs.YtcfinhepcpjcnadDoor
