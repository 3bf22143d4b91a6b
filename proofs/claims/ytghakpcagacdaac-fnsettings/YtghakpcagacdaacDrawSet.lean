/- The draws of settings and of two numbers: what is drawn lies in memory of its own. -/
import Derived.Test.YtghakpcagacdaacDrawOnce
import Derived.Test.YtghakpcagacdaacSetRow
import Derived.Test.YtghakpcagacdaacBox4
namespace Go.Proofs.Ytghakpcagacdaac
open Go.RowKit
set_option linter.unusedVariables false

theorem pairNew (w : World) (x y : Int) (t : TypeId) : ∀ j u, [Value.int .i64 x, Value.int .i64 y][j]? = some u → (w.alloc (.cells #[.int .i64 x, .int .i64 y] t)).cell? ((⟨w.heap.size, 0, none⟩ : Addr).add j) = some u := by
  intro j u hj
  match j, hj with
  | 0, hj => simp at hj; subst hj; simp [Addr.add]
  | 1, hj => simp at hj; subst hj; simp [Addr.add]

theorem intsTwo (x y : Int) : ∀ u ∈ [Value.int .i64 x, Value.int .i64 y], u.oneCell' = true := by
  intro u hu
  simp at hu
  rcases hu with rfl | rfl <;> rfl

/-- What a draw of settings keeps: the cursor, and the settings so far in a row of the call's own. -/
def DS (w W : World) (B c : Nat) (a : Option Addr) (len cap : Nat) (zs : List Int) (g n cp : Nat) (l : List Sett) : Prop :=
  Cur W B c a len cap zs ∧ w.grownBy W (some c) ∧ OwnS W w.heap.size (some ⟨g, 0, none⟩) n cp l

theorem DS.new {w W : World} {B c : Nat} {a : Option Addr} {len cap : Nat} {zs : List Int} {g n cp : Nat} {l : List Sett} (h : DS w W B c a len cap zs g n cp l) (o : Obj) : DS w (W.alloc o) B c a len cap zs g n cp l :=
  ⟨h.1.new o, gnew h.2.1 o, h.2.2.below ((Below.refl _ _).alloc (Nat.le_refl _) _)⟩

theorem DS.call {w W W' : World} {B c : Nat} {a : Option Addr} {len cap : Nat} {zs : List Int} {g n cp : Nat} {l : List Sett} (h : DS w W B c a len cap zs g n cp l) (hc : Cur W' B c a len cap zs) (hg : W.grownBy W' (some c)) (hcw : c < w.heap.size) : DS w W' B c a len cap zs g n cp l :=
  ⟨hc, gtrans h.2.1 hg, h.2.2.kept hg (fun k hk e => by have h1 := h.2.2.lt k e; injection hk with hk; omega)⟩

theorem DS.app {w W W' : World} {B c : Nat} {a : Option Addr} {len cap : Nat} {zs : List Int} {g n cp : Nat} {l : List Sett} (h : DS w W B c a len cap zs g n cp l) (hcw : c < w.heap.size) {v : Value} {x y : Int} (hx : i64b x) (hy : i64b y)
    (ho : W'.ownsRow w.heap.size 60 2 v (n + 1) (setCells l ++ [.int .i64 x, .int .i64 y])) (hg : W.grownBy W' (some g)) : ∃ g' cp', v = .slice (some ⟨g', 0, none⟩) (n + 1) cp' ∧ DS w W' B c a len cap zs g' (n + 1) cp' (l ++ [(x, y)]) := by
  have hgl := h.2.2.lt g rfl
  rcases ho.2 with ⟨_, h0⟩ | ⟨g', cap', cur, he, hb, r⟩
  · omega
  · refine ⟨g', cap', he, h.1.kept hg (fun k hk => ?_), gown h.2.1 hg (fun k hk => ?_), ?_, ?_⟩
    · injection hk with hk
      have := h.1.1
      omega
    · injection hk with hk
      omega
    · rw [setCells_append, ← he]
      exact ho
    · intro s hs
      rcases List.mem_append.1 hs with hs | hs
      · exact h.2.2.2 s hs
      · obtain rfl : s = (x, y) := by simpa using hs
        exact ⟨hx, hy⟩

set_option maxRecDepth 10000 in
set_option maxHeartbeats 1600000 in
theorem l7Sett_any (B c : Nat) (a : Option Addr) (len cap : Nat) (zs : List Int) (w : World) (hcur : Cur w B c a len cap zs) (hl : len ≤ 1099511627776) :
    Calls Try.prog 63 #[.pointer (some ⟨c, 0, none⟩)] w fun e w' => ∃ (g n cp : Nat) (l : List Sett), e = .returned (.slice (some ⟨g, 0, none⟩) n cp) ∧ n ≤ 3 ∧ DS w w' B c a len cap zs g n cp l := by
  obtain ⟨i0, hi, hz0, hz1, hz2⟩ := info_parts info_setting
  have hcl : c < w.heap.size := hcur.lt
  have HD0 : Hid (DS w (w.alloc (.cells #[] 60)) B c a len cap zs w.heap.size 0 0 []) := ⟨hcur.new _, World.grownBy_alloc w _ _, World.ownsRow_lit w #[] 0 (Nat.le_refl _) (Nat.zero_le _) rfl, by simp⟩
  clear hcur
  go_enter Try.func63, Try.ntmps63
  go_wp2_with fail
  refine (l1Below_any B c a len cap zs 4 _ HD0.out.1 hl (by omega) (by omega)).mono ?_
  rintro e w1 ⟨m, rfl, hm0, hm1, hc1, hg1⟩
  have HD1 : Hid (DS w w1 B c a len cap zs w.heap.size 0 0 []) := HD0.out.call hc1 hg1 hcl
  obtain ⟨M, rfl⟩ := Int.eq_ofNat_of_zero_le hm0
  clear hc1 hg1 HD0
  go_wp2_with fail
  go_loopw [3, 4] (fun v i wr => ∃ (j g n cp : Nat) (l : List Sett), i = .int .i64 (j : Int) ∧ v = .slice (some ⟨g, 0, none⟩) n cp ∧ n + j ≤ 3 ∧ Hid (DS w wr B c a len cap zs g n cp l)) (fun _ i _ => (intOf i).toNat)
  case atStart => exact ⟨M, w.heap.size, 0, 0, [], rfl, rfl, by omega, HD1⟩
  case round =>
    clear HD1
    obtain ⟨j, g, n, cp, l, rfl, rfl, hnj, HD⟩ := hrel
    by_cases hj : j = 0
    · subst hj
      go_wp2_with fail
      go_ret
      exact ⟨g, n, cp, l, rfl, by omega, HD.out⟩
    · have hji : (0 : Int) < (j : Int) := by omega
      have hcwr : c < wr.heap.size := HD.out.1.lt
      go_wp2_with fail
      refine (l1Int_any B c a len cap zs wr.heap.size 5 5 [1, 3, 4, 5, 65535] _ (HD.out.new _).1 hl (heap_alloc_new wr _) (by omega) rfl (by omega) (by omega)).mono ?_
      rintro e w3 ⟨x, rfl, hx, hc3, hg3⟩
      have HXb : Hid (i64b x) := by
        show _ ∧ _
        simp only [List.mem_cons, List.not_mem_nil, or_false] at hx
        omega
      have HD3 : Hid (DS w w3 B c a len cap zs g n cp l) := (HD.out.new _).call hc3 hg3 hcl
      have hcw3 : c < w3.heap.size := HD3.out.1.lt
      clear hx hc3 hg3 HD
      go_wp2_with fail
      refine (l1Int_any B c a len cap zs w3.heap.size 4 4 [0, 100, 4294967295, 65535] _ (HD3.out.new _).1 hl (heap_alloc_new w3 _) (by omega) rfl (by omega) (by omega)).mono ?_
      rintro e w4 ⟨y, rfl, hy, hc4, hg4⟩
      have HYb : Hid (i64b y) := by
        show _ ∧ _
        simp only [List.mem_cons, List.not_mem_nil, or_false] at hy
        omega
      have HD4 : Hid (DS w w4 B c a len cap zs g n cp l) := (HD3.out.new _).call hc4 hg4 hcl
      have hsz := HD4.out.2.1.size
      clear hy hc4 hg4 HD3
      have HN2 : Hid (∀ j u, [Value.int .i64 x, Value.int .i64 y][j]? = some u → (w4.alloc (.cells #[.int .i64 x, .int .i64 y] 60)).cell? ((⟨w4.heap.size, 0, none⟩ : Addr).add j) = some u) := pairNew w4 x y _
      go_wp2_with (at_builtin; refine wpList_append_own _ rfl _ _ 54 rfl w.heap.size 60 i0 (.agg #[.int .i64 0, .int .i64 0]) 2 16 Try.underlying54 hi hz0 hz1 hz2 rfl (by decide) (.slice (some ⟨g, 0, none⟩) n cp) n _ rfl (HD4.out.new _).2.2.1 ⟨w4.heap.size, 0, none⟩ 1 1 [.int .i64 x, .int .i64 y] rfl rfl HN2.out (intsTwo x y) (by unfold maxLen; omega) (by omega) (by simp; omega) ?_; intro v5 w5 hown5 hgrow5 _; refine Hid.out ?_)
      refine hidden ?_
      obtain ⟨g5, cp5, rfl, hd5⟩ := (HD4.out.new _).app hcl HXb.out HYb.out hown5 hgrow5
      have HD5 : Hid (DS w w5 B c a len cap zs g5 (n + 1) cp5 (l ++ [(x, y)])) := hd5
      clear hown5 hgrow5 hd5 HN2 HD4
      go_wp2_with fail
      go_roundw
      case rel => exact ⟨j - 1, g5, n + 1, cp5, l ++ [(x, y)], by go_num, rfl, by omega, HD5⟩
      case measure => simp [intOf]; omega

set_option maxRecDepth 10000 in
set_option maxHeartbeats 1600000 in
theorem drawSett_any (a : Option Addr) (len cap : Nat) (zs : List Int) (w : World) (hs : Seg w a len zs) (hl : len ≤ 1099511627776) :
    Calls Try.prog 28 #[.slice a len cap] w fun e w' => ∃ (g n cp : Nat) (l : List Sett), e = .returned (.slice (some ⟨g, 0, none⟩) n cp) ∧ n ≤ 4 ∧ OwnS w' w.heap.size (some ⟨g, 0, none⟩) n cp l ∧ Below w.heap.size w w' := by
  obtain ⟨i0, hi, hz0, hz1, hz2⟩ := info_parts info_setting
  have HS : Hid (Seg w a len zs) := hs
  clear hs
  go_enter Try.func28, Try.ntmps28
  go_wp2_with fail
  refine (l1New_any a len cap zs w HS.out hl).mono ?_
  rintro e w1 ⟨rfl, hc1, hb1⟩
  have HB1 : Hid (Below w.heap.size w w1) := hb1
  have HC1 : Hid (Cur w1 w.heap.size w.heap.size a len cap zs) := hc1
  have hcl : w.heap.size < w1.heap.size := hc1.lt
  clear hc1 hb1
  go_wp2_with fail
  refine (l7Sett_any _ _ a len cap zs w1 HC1.out hl).mono ?_
  rintro e w2 ⟨g, n, cp, l, rfl, hn, hd2⟩
  have HD2 : Hid (DS w1 w2 w.heap.size w.heap.size a len cap zs g n cp l) := hd2
  clear hd2 HC1
  go_wp2_with fail
  refine (l1Once_any _ _ a len cap zs 6 w2 HD2.out.1 hl (by omega) (by omega)).mono ?_
  rintro e w3 ⟨b, rfl, hc3, hg3⟩
  have HD3 : Hid (DS w1 w3 w.heap.size w.heap.size a len cap zs g n cp l) := HD2.out.call hc3 hg3 hcl
  clear hc3 hg3 HD2
  have HEnd : Hid (∀ (W : World) (g n cp : Nat) (l : List Sett), DS w1 W w.heap.size w.heap.size a len cap zs g n cp l → OwnS W w.heap.size (some ⟨g, 0, none⟩) n cp l ∧ Below w.heap.size w W) := fun W g n cp l h => by
    refine ⟨⟨own_low h.2.2.1 (Nat.le_of_lt hcl), h.2.2.2⟩, ?_⟩
    exact HB1.out.grown h.2.1 HB1.out.size (fun k hk => by injection hk with hk; omega)
  cases b with
  | false =>
    go_wp2_with fail
    go_ret
    obtain ⟨h1, h2⟩ := HEnd.out w3 g n cp l HD3.out
    exact ⟨g, n, cp, l, rfl, by omega, h1, h2⟩
  | true =>
    have hcw3 : w.heap.size < w3.heap.size := HD3.out.1.lt
    go_wp2_with fail
    refine (l1Int_any _ _ a len cap zs w3.heap.size 2 2 [-1, 65536] _ (HD3.out.new _).1 hl (heap_alloc_new w3 _) (by omega) rfl (by omega) (by omega)).mono ?_
    rintro e w4 ⟨x, rfl, hx, hc4, hg4⟩
    have HXb : Hid (i64b x) := by
      show _ ∧ _
      simp only [List.mem_cons, List.not_mem_nil, or_false] at hx
      omega
    have HD4 : Hid (DS w1 w4 w.heap.size w.heap.size a len cap zs g n cp l) := (HD3.out.new _).call hc4 hg4 hcl
    have hcw4 : w.heap.size < w4.heap.size := HD4.out.1.lt
    clear hx hc4 hg4 HD3
    go_wp2_with fail
    refine (l1Int_any _ _ a len cap zs w4.heap.size 2 2 [-1, 4294967296] _ (HD4.out.new _).1 hl (heap_alloc_new w4 _) (by omega) rfl (by omega) (by omega)).mono ?_
    rintro e w5 ⟨y, rfl, hy, hc5, hg5⟩
    have HYb : Hid (i64b y) := by
      show _ ∧ _
      simp only [List.mem_cons, List.not_mem_nil, or_false] at hy
      omega
    have HD5 : Hid (DS w1 w5 w.heap.size w.heap.size a len cap zs g n cp l) := (HD4.out.new _).call hc5 hg5 hcl
    have hsz := HD5.out.2.1.size
    clear hy hc5 hg5 HD4
    have HN2 : Hid (∀ j u, [Value.int .i64 x, Value.int .i64 y][j]? = some u → (w5.alloc (.cells #[.int .i64 x, .int .i64 y] 60)).cell? ((⟨w5.heap.size, 0, none⟩ : Addr).add j) = some u) := pairNew w5 x y _
    go_wp2_with (at_builtin; refine wpList_append_own _ rfl _ _ 54 rfl w1.heap.size 60 i0 (.agg #[.int .i64 0, .int .i64 0]) 2 16 Try.underlying54 hi hz0 hz1 hz2 rfl (by decide) (.slice (some ⟨g, 0, none⟩) n cp) n _ rfl (HD5.out.new _).2.2.1 ⟨w5.heap.size, 0, none⟩ 1 1 [.int .i64 x, .int .i64 y] rfl rfl HN2.out (intsTwo x y) (by unfold maxLen; omega) (by omega) (by simp; omega) ?_; intro v6 w6 hown6 hgrow6 _; refine Hid.out ?_)
    refine hidden ?_
    obtain ⟨g6, cp6, rfl, hd6⟩ := (HD5.out.new _).app hcl HXb.out HYb.out hown6 hgrow6
    have HD6 : Hid (DS w1 w6 w.heap.size w.heap.size a len cap zs g6 (n + 1) cp6 (l ++ [(x, y)])) := hd6
    clear hown6 hgrow6 hd6 HN2 HD5
    go_wp2_with fail
    go_ret
    obtain ⟨h1, h2⟩ := HEnd.out w6 g6 (n + 1) cp6 _ HD6.out
    exact ⟨g6, n + 1, cp6, _, rfl, by omega, h1, h2⟩

set_option maxRecDepth 10000 in
set_option maxHeartbeats 800000 in
theorem drawAway_any (a : Option Addr) (len cap : Nat) (zs : List Int) (w : World) (hs : Seg w a len zs) (hl : len ≤ 1099511627776) :
    Calls Try.prog 31 #[.slice a len cap] w fun e w' => ∃ x y : Int, e = .returned (.tuple #[.int .i64 x, .int .i64 y]) ∧ x ≤ 9223372036854775807 ∧ y ≤ 9223372036854775807 ∧ Below w.heap.size w w' := by
  have HS : Hid (Seg w a len zs) := hs
  clear hs
  go_enter Try.func31, Try.ntmps31
  go_wp2_with fail
  refine (l1New_any a len cap zs w HS.out hl).mono ?_
  rintro e w1 ⟨rfl, hc1, hb1⟩
  have HB1 : Hid (Below w.heap.size w w1) := hb1
  have HC1 : Hid (Cur w1 w.heap.size w.heap.size a len cap zs) := hc1
  have hcl : w.heap.size < w1.heap.size := hc1.lt
  clear hc1 hb1
  go_wp2_with fail
  refine (l1Int_any _ _ a len cap zs w1.heap.size 5 5 [0, 1, 2147483647, -1, 4294967296] _ (HC1.out.new _) hl (heap_alloc_new w1 _) (by omega) rfl (by omega) (by omega)).mono ?_
  rintro e w2 ⟨x, rfl, hx, hc2, hg2⟩
  have HXb : Hid (x ≤ 9223372036854775807) := by
    show _ ≤ _
    simp only [List.mem_cons, List.not_mem_nil, or_false] at hx
    omega
  have HC2 : Hid (Cur w2 w.heap.size w.heap.size a len cap zs) := hc2
  have HB2 : Hid (Below w.heap.size w w2) := (HB1.out.alloc HB1.out.size _).grown hg2 (by simp; omega) (fun k hk => by injection hk with hk; omega)
  have hcl2 : w.heap.size < w2.heap.size := hc2.lt
  clear hx hc2 hg2 HC1
  go_wp2_with fail
  refine (l1Int_any _ _ a len cap zs w2.heap.size 5 5 [0, 1, 11, 4294967295, -1] _ (HC2.out.new _) hl (heap_alloc_new w2 _) (by omega) rfl (by omega) (by omega)).mono ?_
  rintro e w3 ⟨y, rfl, hy, hc3, hg3⟩
  have HYb : Hid (y ≤ 9223372036854775807) := by
    show _ ≤ _
    simp only [List.mem_cons, List.not_mem_nil, or_false] at hy
    omega
  have HB3 : Hid (Below w.heap.size w w3) := (HB2.out.alloc HB2.out.size _).grown hg3 (by simp; omega) (fun k hk => by injection hk with hk; omega)
  clear hy hc3 hg3 HC2
  go_wp2_with fail
  go_ret2
  exact ⟨x, y, rfl, HXb.out, HYb.out, HB3.out⟩

end Go.Proofs.Ytghakpcagacdaac
