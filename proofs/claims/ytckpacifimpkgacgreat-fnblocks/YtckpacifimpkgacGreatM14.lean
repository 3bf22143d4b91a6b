/- An append onto a row of the call's own that has a block, of whatever may be appended: it has a block behind it, too. No program in it. What PutFields answers, and what its loop keeps. The form that a first byte tells. What groups behind a full prefix make, how many they are, and whether the last one is there; no program in it. The program's iterator of what each group adds: it ends by itself where the last group is not there. -/
import Derived.Test.YtckpacifimpkgacGreatM03
import Derived.Test.YtckpacifimpkgacGreatM12
import Derived.Test.YtckpacifimpkgacGreatM13
import Derived.Test.YtckpacifimpkgacGreatM08
import Derived.Test.YtckpacifimpkgacGreatM02
import Derived.RangeFuncBound
import Derived.RangeFuncCalls
import Derived.Shelf.Abstract
import Derived.Shelf.RegionOpen
import Derived.OwnWalkIn
import Derived.TacticsInMore
import Derived.LoopNIn
import Derived.LoopIn
import Derived.Test.YtckpacifimpkgacGreatM04
namespace Go.Proofs.YtckpacifimpkgacGreat
open Go.RowKit
set_option linter.unusedVariables false

theorem run_append_got {P : Program} (w : World) (base : Nat) (t tx ty e : TypeId) (i : TypeInfo) (z : Value) (size bytes : Nat) (ht : P.underlying t = some (.slice e)) (hi : P.info? e = some i) (hz : i.zero = some z)
    (hsize : i.size = size) (hby : i.bytes = bytes) (hzs : z.cells.size = size) (hsz : 0 < size)
    (g n cap : Nat) (xs : List Value) (hown : w.ownsRow base e size (.slice (some ⟨g, 0, none⟩) n cap) n xs)
    (x : Value) (m : Nat) (news : List Value) (hs : Src P size tx x m news w)
    (h63 : n + m ≤ maxLen) (hbytes : (n + m) * bytes ≤ 140737488355328) (hbase : base ≤ w.heap.size) :
    ∃ g' c' w', (Builtin.append_ #[t, tx] ty #[.slice (some ⟨g, 0, none⟩) n cap, x]).run P w = .ok (.slice (some ⟨g', 0, none⟩) (n + m) c') w' ∧ w'.ownsRow base e size (.slice (some ⟨g', 0, none⟩) (n + m) c') (n + m) (xs ++ news) ∧ w.grownBy w' (some g) := by
  subst hsize
  subst hby
  have hsmall : n + m ≤ 9223372036854775807 := by simp only [maxLen] at h63; omega
  have hl := hs.newsLen
  have hlen : (xs ++ news).length = (n + m) * i.size := by rw [List.length_append, hown.1, hl, Nat.add_mul]
  rcases hown.2 with ⟨h, _⟩ | ⟨g', cap', cur, heq, hbg, hg, hnc, hcm, hcs, htake⟩
  · cases h
  · injection heq with e1 e2 e3
    injection e1 with e1
    injection e1 with e1
    subst e1
    subst e3
    by_cases hroom : n + m ≤ cap
    · have hfit : n * i.size + news.length ≤ cur.size := by rw [hl, hcs, ← Nat.add_mul]; exact Nat.mul_le_mul_right _ hroom
      have hr := run_room_any w t tx ty e i ht hi g n cap cur hg x m news hs hroom hfit
      refine ⟨_, _, _, hr, ⟨hlen, .inr ⟨g, cap, _, rfl, hbg, setRow_heap w g cur _ e _ hg, hroom, hcm, ?_, ?_⟩⟩, ⟨rfl, rfl, rfl, by simp, fun k _ hk => setRow_other w g k _ (fun e => hk (by simp [e]))⟩⟩
      · simp only [List.size_toArray, List.length_append, List.length_take, List.length_drop, Array.length_toList]
        omega
      · rw [htake, ← hlen]
        exact List.take_left
    · have holds : ∀ j u, xs[j]? = some u → w.cell? ((⟨g, 0, none⟩ : Addr).add j) = some u := hown.cells (g := g) rfl
      have hold := run_firstCells_some (P := P) w.drew i.size n ⟨g, 0, none⟩ n cap xs hown.1 (by simpa using holds)
      have hr := run_append_grow_src (P := P) w t tx ty e i z ht hi hz (some ⟨g, 0, none⟩) n cap xs hold x m news hs (by omega) (by omega) (growslice_fits (by omega) hbytes)
      have hge := grownCap_ge w (n + m) cap e
      have hcm' : grownCap w (n + m) cap e ≤ maxLen := grownCap_le_maxLen w (n + m) cap e h63
      refine ⟨_, _, _, hr, ⟨hlen, .inr ⟨w.heap.size, _, _, rfl, hbase, heap_alloc_new w.drew _, hge, hcm', ?_, ?_⟩⟩, ⟨rfl, rfl, rfl, by simp, fun k hk _ => heap_alloc_old w.drew _ hk⟩⟩
      · simp only [Array.size_append, List.size_toArray, size_zeroCells, hzs, hlen, ← Nat.add_mul]
        congr 1
        omega
      · simp only [Array.toList_append]
        rw [← hlen]
        exact List.take_left

theorem wpList_append_got {P : Program} {w : World} {ops : Array Oper} {rest : List Oper} {o : Oper} {a : Act} {Q : Exit → Act → World → Prop} (hgd : o.guard = none) (s x : Operand) (t tx : TypeId)
    (ho : o.op = .call { callee := .builtin .append, args := #[s, x], argTypes := #[t, tx] })
    (base : Nat) (e : TypeId) (i : TypeInfo) (z : Value) (size bytes : Nat) (ht : P.underlying t = some (.slice e)) (hi : P.info? e = some i) (hz : i.zero = some z)
    (hsize : i.size = size) (hby : i.bytes = bytes) (hzs : z.cells.size = size) (hsz : 0 < size)
    (g n cap : Nat) (xs : List Value) (hs : a.eval s = .slice (some ⟨g, 0, none⟩) n cap) (hown : w.ownsRow base e size (.slice (some ⟨g, 0, none⟩) n cap) n xs)
    (u : Value) (m : Nat) (news : List Value) (hx : a.eval x = u) (hsrc : Src P size tx u m news w)
    (h63 : n + m ≤ maxLen) (hbytes : (n + m) * bytes ≤ 140737488355328) (hbase : base ≤ w.heap.size)
    (h : ∀ g' c' w', w'.ownsRow base e size (.slice (some ⟨g', 0, none⟩) (n + m) c') (n + m) (xs ++ news) → w.grownBy w' (some g) → wpList P ops Q rest (a.put o.dst (.slice (some ⟨g', 0, none⟩) (n + m) c')) w') : wpList P ops Q (o :: rest) a w := by
  refine wpList_plain hgd fun K hK => ?_
  obtain ⟨g', c', w', hr, h2, h3⟩ := run_append_got (P := P) w base t tx o.type e i z size bytes ht hi hz hsize hby hzs hsz g n cap xs hown u m news hsrc h63 hbytes hbase
  unfold Oper.wp execOp
  simp only [ho, resolve, invoke, builtin, Sem.run_bind, Sem.run_pure, Result.andThen_ok, List.map_toArray, List.map_cons, List.map_nil, hs, hx, hr]
  exact hK _ _ (h g' c' w' h2 h3)

end Go.Proofs.YtckpacifimpkgacGreat

namespace Go.Proofs.YtckpacifimpkgacGreat
open Go.RowKit
set_option linter.unusedVariables false

/-- The mode of a field: of one name it is never kept. -/
def fmode (x : ByteArray) : Int := if x.toList == [97, 117, 116, 104, 111, 114, 105, 122, 97, 116, 105, 111, 110] then 3 else 1

/-- What stands behind the first n fields of L: the bytes and the table's fields. -/
def PutN (L : List Fld) (m : Int) (xs : List Fld) : Nat → List Int → List Fld → Prop
  | 0, q, ys => q = [] ∧ ys = xs
  | n + 1, q, ys => ∃ q1 y1 x y r, PutN L m xs n q1 y1 ∧ L[n]? = some (x, y) ∧ PutAns m y1 x y (fmode x) r ys ∧ q = q1 ++ r

theorem PutN.one {L : List Fld} {m : Int} {xs : List Fld} : ∀ {n : Nat} {q r : List Int} {ys zs : List Fld}, PutN L m xs n q ys → PutN L m xs n r zs → q = r ∧ ys = zs := by
  intro n
  induction n with
  | zero =>
    rintro q r ys zs ⟨rfl, rfl⟩ ⟨rfl, rfl⟩
    exact ⟨rfl, rfl⟩
  | succ n ih =>
    rintro q r ys zs ⟨q1, y1, x, y, r1, h1, h2, h3, rfl⟩ ⟨q2, y2, x2, z2, r2, g1, g2, g3, rfl⟩
    obtain ⟨rfl, rfl⟩ := ih h1 g1
    rw [h2] at g2
    injection g2 with g2
    injection g2 with e1 e2
    subst e1
    subst e2
    obtain ⟨rfl, rfl⟩ := h3.one g3
    exact ⟨rfl, rfl⟩

theorem PutAns.fits {m : Int} {xs : List Fld} {x y : ByteArray} {mode : Int} {q : List Int} {ys : List Fld} (h : PutAns m xs x y mode q ys) : ys.length ≤ xs.length + 1 ∧ fldBytes ys ≤ fldBytes xs + (x.size + y.size) ∧ q.length ≤ x.size + y.size + 18 := by
  rcases h with ⟨_, i, b, _, h2, h3⟩ | ⟨_, rfl, rfl⟩
  · have h4 := h2.len
    rcases h3 with ⟨_, _, h⟩ | ⟨_, rfl⟩
    · refine ⟨h.short, ?_, h4⟩
      rcases h with ⟨_, k, _, rfl⟩ | ⟨_, rfl⟩
      · have h5 := fldBytes_take ((x, y) :: xs) k
        have h6 : fldBytes ((x, y) :: xs) = x.size + y.size + fldBytes xs := by simp [fldBytes]
        omega
      · omega
    · exact ⟨by omega, by omega, h4⟩
  · exact ⟨by omega, by omega, by simp⟩

theorem PutN.fits {L : List Fld} {m : Int} {xs : List Fld} : ∀ {n : Nat} {q : List Int} {ys : List Fld}, PutN L m xs n q ys → ys.length ≤ xs.length + n ∧ fldBytes ys ≤ fldBytes xs + fldBytes (L.take n) ∧ q.length ≤ fldBytes (L.take n) + 18 * n := by
  intro n
  induction n with
  | zero =>
    rintro q ys ⟨rfl, rfl⟩
    exact ⟨by omega, by omega, by simp⟩
  | succ n ih =>
    rintro q ys ⟨q1, y1, x, y, r, h1, h2, h3, rfl⟩
    have h4 := ih h1
    have h5 := h3.fits
    have h6 := fldBytes_step L n x y h2
    rw [List.length_append]
    omega

theorem own_set_other {w : World} {base n size : Nat} {e : TypeId} {v : Value} {xs : List Value} (h : w.ownsRow base e size v n xs) {b : Nat} (hb : v.ownBlock ≠ some b) (k : Nat) (u : Value) : (w.setCell ⟨b, k, none⟩ u).ownsRow base e size v n xs := by
  refine ⟨h.1, ?_⟩
  rcases h.2 with h | ⟨g, cap, cur, heq, h1, hg, r⟩
  · exact .inl h
  · refine .inr ⟨g, cap, cur, heq, h1, ?_, r⟩
    rw [set_block_other _ _ _ _ _ (fun e => hb (by rw [heq, e]; rfl))]
    exact hg

/-- What the loop of PutFields keeps: the answer's variable, the table's, the bytes. -/
def PSt (w W : World) (bb : Nat) (m : Int) (q : List Int) (ql g c : Nat) (va : Option Addr) (n vc : Nat) (ys : List Fld) : Prop :=
  Below w.heap.size w W ∧ w.heap.size + 1 < bb ∧ Box2 W (w.heap.size + 1) 26 (.int .i64 0) (.slice none 0 0) ∧ Box2 W bb 26 (.int .i64 m) (.slice va n vc) ∧
    Owns W w.heap.size (some ⟨g, 0, none⟩) ql c q ∧ OwnF W w.heap.size (.slice va n vc) n ys

theorem PSt.stays {w W W' : World} {bb : Nat} {m : Int} {q : List Int} {ql g c : Nat} {va : Option Addr} {n vc : Nat} {ys : List Fld} (h : PSt w W bb m q ql g c va n vc ys) (hb : Below W.heap.size W W') : PSt w W' bb m q ql g c va n vc ys :=
  ⟨h.1.trans (hb.mono h.1.size), h.2.1, h.2.2.1.stays hb, h.2.2.2.1.stays hb, h.2.2.2.2.1.below hb, h.2.2.2.2.2.stays hb⟩

theorem owns_apart2 {W : World} {base n cap : Nat} {a : Option Addr} {zs : List Int} (h : Owns W base a n cap zs) {b : Nat} {x y : Value} (hq : Box2 W b 26 x y) : (Value.slice a n cap).ownBlock ≠ some b := by
  rw [ownBlock_slice]
  exact h.other hq (by decide)

theorem ownF_apart2 {W : World} {base n k : Nat} {v : Value} {ys : List Fld} (h : OwnF W base v k ys) {b : Nat} {x y : Value} (hq : Box2 W b 26 x y) : v.ownBlock ≠ some b := own_other' h.1 hq (by decide)

theorem owns_setTwo {W : World} {base n cap : Nat} {a : Option Addr} {zs : List Int} (h : Owns W base a n cap zs) {b : Nat} {x y : Value} (hq : Box2 W b 26 x y) (u v : Value) : Owns ((W.setCell ⟨b, 0, none⟩ u).setCell ⟨b, 1, none⟩ v) base a n cap zs :=
  ⟨own_set_other (own_set_other h.1 (owns_apart2 h hq) _ _) (owns_apart2 h hq) _ _, h.2⟩

theorem ownF_setTwo {W : World} {base k : Nat} {z : Value} {ys : List Fld} (h : OwnF W base z k ys) {b : Nat} {x y : Value} (hq : Box2 W b 26 x y) (u v : Value) : OwnF ((W.setCell ⟨b, 0, none⟩ u).setCell ⟨b, 1, none⟩ v) base z k ys :=
  ⟨own_set_other (own_set_other h.1 (own_other' h.1 hq (by decide)) _ _) (own_other' h.1 hq (by decide)) _ _, h.2⟩

theorem PSt.put {w W : World} {bb : Nat} {m : Int} {q : List Int} {ql g c : Nat} {va : Option Addr} {n vc : Nat} {ys : List Fld} (h : PSt w W bb m q ql g c va n vc ys) {B : Nat} (hB : w.heap.size ≤ B) {a2 : Option Addr} {n2 c2 : Nat} {zs : List Fld} (ho : OwnF W B (.slice a2 n2 c2) n2 zs) :
    PSt w ((W.setCell ⟨bb, 0, none⟩ (.int .i64 m)).setCell ⟨bb, 1, none⟩ (.slice a2 n2 c2)) bb m q ql g c a2 n2 c2 zs := by
  obtain ⟨h1, h2, h3, h4, h5, h6⟩ := h
  refine ⟨(h1.setCell (p := ⟨bb, 0, none⟩) (show w.heap.size ≤ bb by omega) _).setCell (p := ⟨bb, 1, none⟩) (show w.heap.size ≤ bb by omega) _, h2, ?_, two_set1 (two_set0 h4 _) _, owns_setTwo h5 h4 _ _, ?_⟩
  · show _ = _
    rw [set_block_other _ _ _ _ _ (by omega), set_block_other _ _ _ _ _ (by omega)]
    exact h3
  · have := ownF_setTwo ho h4 (.int .i64 m) (.slice a2 n2 c2)
    exact ⟨own_down this.1 hB, this.2⟩

theorem PSt.app {w W W' : World} {bb : Nat} {m : Int} {q r : List Int} {ql rl g c g' c' : Nat} {va : Option Addr} {n vc : Nat} {ys : List Fld} (h : PSt w W bb m q ql g c va n vc ys) (hg : W.grownBy W' (some g)) (ho : W'.ownsRow w.heap.size 5 1 (.slice (some ⟨g', 0, none⟩) (ql + rl) c') (ql + rl) (q.map (Value.int .u8) ++ r.map (Value.int .u8))) (hr : ∀ x ∈ r, 0 ≤ x ∧ x ≤ 255) :
    PSt w W' bb m (q ++ r) (ql + rl) g' c' va n vc ys := by
  obtain ⟨h1, h2, h3, h4, h5, h6⟩ := h
  have e1 : some g ≠ some bb := fun e => by
    have := owns_apart2 h5 h4
    rw [ownBlock_slice] at this
    exact this e
  have e2 : some g ≠ some (w.heap.size + 1) := fun e => by
    have := owns_apart2 h5 h3
    rw [ownBlock_slice] at this
    exact this e
  have hgb : ∃ cur : Array Value, W.heap[g]? = some (.cells cur 5 (0, 0)) := by
    rcases h5.1.2 with ⟨h, _⟩ | ⟨g2, cap2, cur, heq, _, hg2, _⟩
    · cases h
    · injection heq with e3 _ _
      injection e3 with e3
      injection e3 with e3
      subst e3
      exact ⟨cur, hg2⟩
  obtain ⟨cur, hgb⟩ := hgb
  refine ⟨h1.grown hg h1.size (fun k hk => ?_), h2, h3.grown hg e2, h4.grown hg e1, ⟨?_, ?_⟩, h6.grown hg (.inr (own_other' h6.1 hgb (by decide)))⟩
  · exact (h5.lt k hk).1
  · rw [List.map_append]
    exact ho
  · intro x hx
    rcases List.mem_append.1 hx with hx | hx
    · exact h5.2 x hx
    · exact hr x hx

theorem PSt.fin {w W : World} {bb : Nat} {m : Int} {q : List Int} {ql g c : Nat} {va : Option Addr} {n vc : Nat} {ys : List Fld} (h : PSt w W bb m q ql g c va n vc ys) :
    Below w.heap.size w ((W.setCell ⟨w.heap.size + 1, 0, none⟩ (.int .i64 m)).setCell ⟨w.heap.size + 1, 1, none⟩ (.slice va n vc)).drew ∧ Box2 ((W.setCell ⟨w.heap.size + 1, 0, none⟩ (.int .i64 m)).setCell ⟨w.heap.size + 1, 1, none⟩ (.slice va n vc)).drew (w.heap.size + 1) 26 (.int .i64 m) (.slice va n vc) ∧
    Owns ((W.setCell ⟨w.heap.size + 1, 0, none⟩ (.int .i64 m)).setCell ⟨w.heap.size + 1, 1, none⟩ (.slice va n vc)).drew w.heap.size (some ⟨g, 0, none⟩) ql c q ∧ OwnF ((W.setCell ⟨w.heap.size + 1, 0, none⟩ (.int .i64 m)).setCell ⟨w.heap.size + 1, 1, none⟩ (.slice va n vc)).drew w.heap.size (.slice va n vc) n ys := by
  obtain ⟨h1, h2, h3, h4, h5, h6⟩ := h
  exact ⟨((h1.setCell (p := ⟨w.heap.size + 1, 0, none⟩) (show w.heap.size ≤ w.heap.size + 1 by omega) _).setCell (p := ⟨w.heap.size + 1, 1, none⟩) (show w.heap.size ≤ w.heap.size + 1 by omega) _).drew, two_set1 (two_set0 h3 _) _, owns_setTwo h5 h3 _ _, ownF_setTwo h6 h3 _ _⟩

end Go.Proofs.YtckpacifimpkgacGreat

namespace Go.Proofs.YtckpacifimpkgacGreat
open Go.RowKit
set_option linter.unusedVariables false

/-- The form of a first byte. -/
def formL (c : Int) : TypeId := if 128 ≤ c then 82 else if 64 ≤ c then 99 else if 32 ≤ c then 80 else if 16 ≤ c then 98 else 100

set_option maxRecDepth 10000 in
theorem formOf_any (c : Int) (w : World) : Calls Tryz.prog 38 #[.int .u8 c] w fun e w' => e = .returned (.iface (formL c) (.agg #[])) ∧ w' = w := by
  by_cases h1 : 128 ≤ c
  · have d1 : decide (128 ≤ c) = true := by simp; omega
    go_enter Tryz.func38, Tryz.ntmps38
    go_wp2_with fail
    go_ret
    exact ⟨by rw [formL, if_pos (by omega)]; rfl, rfl⟩
  · have d1 : decide (128 ≤ c) = false := by simp; omega
    by_cases h2 : 64 ≤ c
    · have d2 : decide (64 ≤ c) = true := by simp; omega
      go_enter Tryz.func38, Tryz.ntmps38
      go_wp2_with fail
      go_ret
      exact ⟨by rw [formL, if_neg (by omega), if_pos (by omega)]; rfl, rfl⟩
    · have d2 : decide (64 ≤ c) = false := by simp; omega
      by_cases h3 : 32 ≤ c
      · have d3 : decide (32 ≤ c) = true := by simp; omega
        go_enter Tryz.func38, Tryz.ntmps38
        go_wp2_with fail
        go_ret
        exact ⟨by rw [formL, if_neg (by omega), if_neg (by omega), if_pos (by omega)]; rfl, rfl⟩
      · have d3 : decide (32 ≤ c) = false := by simp; omega
        by_cases h4 : 16 ≤ c
        · have d4 : decide (16 ≤ c) = true := by simp; omega
          go_enter Tryz.func38, Tryz.ntmps38
          go_wp2_with fail
          go_ret
          exact ⟨by rw [formL, if_neg (by omega), if_neg (by omega), if_neg (by omega), if_pos (by omega)]; rfl, rfl⟩
        · have d4 : decide (16 ≤ c) = false := by simp; omega
          go_enter Tryz.func38, Tryz.ntmps38
          go_wp2_with fail
          go_ret
          exact ⟨by rw [formL, if_neg (by omega), if_neg (by omega), if_neg (by omega), if_neg (by omega)]; rfl, rfl⟩

theorem lead_size (w : World) : Calls Tryz.prog 120 #[.agg #[]] w fun e w' => e = .returned (.tuple #[.int .i64 5, .int .i64 32]) ∧ Below w.heap.size w w' := by
  go_enter Tryz.func120, Tryz.ntmps120
  go_wp2_with fail
  go_ret2
  exact ⟨rfl, (Below.refl _ _).alloc (Nat.le_refl _) _⟩

end Go.Proofs.YtckpacifimpkgacGreat

namespace Go.Proofs.YtckpacifimpkgacGreat
open Go.RowKit
set_option linter.unusedVariables false

/-- The sum of at most f groups, the next one's weight S; how many they are; whether the last one is there. -/
def sg : Nat → List Int → Nat → Nat × Nat × Bool
  | 0, _, _ => (0, 0, false)
  | _ + 1, [], _ => (0, 0, false)
  | f + 1, c :: r, S => if c < 128 then (c.toNat % 128 * S, 1, true) else (c.toNat % 128 * S + (sg f r (S * 128)).1, (sg f r (S * 128)).2.1 + 1, (sg f r (S * 128)).2.2)

theorem sg_cons (f : Nat) (c : Int) (r : List Int) (S : Nat) : sg (f + 1) (c :: r) S = if c < 128 then (c.toNat % 128 * S, 1, true) else (c.toNat % 128 * S + (sg f r (S * 128)).1, (sg f r (S * 128)).2.1 + 1, (sg f r (S * 128)).2.2) := by rw [sg]

theorem gpf_sg (f : Nat) : ∀ (r : List Int) (S n0 : Nat) (p : Int), (∀ x ∈ r, 0 ≤ x) →
    gpf f r (S : Int) (n0 : Int) p = if (sg f r S).2.2 = true ∧ n0 + (sg f r S).1 ≤ 16777216 then (((n0 + (sg f r S).1 : Nat) : Int), p + ((sg f r S).2.1 : Int), true) else (0, 0, false) := by
  induction f with
  | zero => intro r S n0 p hr; simp [gpf, sg]
  | succ f ih =>
    intro r S n0 p hr
    cases r with
    | nil => simp [gpf, sg]
    | cons c r =>
      obtain ⟨C, rfl⟩ := Int.eq_ofNat_of_zero_le (hr c (by simp))
      rw [gpf_step]
      by_cases hC : C < 128
      · have e : sg (f + 1) ((C : Int) :: r) S = (C % 128 * S, 1, true) := by rw [sg, if_pos (by omega), Int.toNat_natCast]
        rw [if_pos hC, e]
        simp
      · have e : sg (f + 1) ((C : Int) :: r) S = (C % 128 * S + (sg f r (S * 128)).1, (sg f r (S * 128)).2.1 + 1, (sg f r (S * 128)).2.2) := by rw [sg, if_neg (by omega), Int.toNat_natCast]
        rw [if_neg hC, e, ih r (S * 128) _ (p + 1) (fun x hx => hr x (by simp [hx]))]
        have e1 : n0 + C % 128 * S + (sg f r (S * 128)).1 = n0 + (C % 128 * S + (sg f r (S * 128)).1) := by omega
        have e2 : p + 1 + ((sg f r (S * 128)).2.1 : Int) = p + (((sg f r (S * 128)).2.1 + 1 : Nat) : Int) := by omega
        rw [e1, e2]

/-- Behind k groups that others follow, which make A. -/
def Link (zs : List Int) (k A : Nat) : Prop :=
  sg 4 zs 1 = (A + (sg (4 - k) (zs.drop k) (128 ^ k)).1, k + (sg (4 - k) (zs.drop k) (128 ^ k)).2.1, (sg (4 - k) (zs.drop k) (128 ^ k)).2.2)

theorem link_start (zs : List Int) : Link zs 0 0 := by simp [Link]

theorem drop_at (zs : List Int) (k : Nat) (hk : k < zs.length) : zs.drop k = zs.getD k 0 :: zs.drop (k + 1) := by
  rw [List.drop_eq_getElem_cons hk]
  simp [List.getD_eq_getElem?_getD, hk]

theorem link_next (zs : List Int) (k A C : Nat) (hk : k < zs.length) (h4 : k < 4) (hC : zs.getD k 0 = (C : Int)) (h : 128 ≤ C) (hl : Link zs k A) : Link zs (k + 1) (A + C % 128 * 128 ^ k) := by
  unfold Link at *
  obtain ⟨j, hj⟩ : ∃ j, 4 - k = j + 1 := ⟨3 - k, by omega⟩
  rw [hj, drop_at zs k hk, hC, sg_cons, if_neg (by omega), Int.toNat_natCast] at hl
  have hj2 : 4 - (k + 1) = j := by omega
  rw [hj2, hl, Nat.pow_succ]
  simp only [Nat.add_assoc, Nat.add_comm 1]

theorem link_last (zs : List Int) (k A C : Nat) (hk : k < zs.length) (h4 : k < 4) (hC : zs.getD k 0 = (C : Int)) (h : C < 128) (hl : Link zs k A) : sg 4 zs 1 = (A + C % 128 * 128 ^ k, k + 1, true) := by
  unfold Link at hl
  obtain ⟨j, hj⟩ : ∃ j, 4 - k = j + 1 := ⟨3 - k, by omega⟩
  rw [hj, drop_at zs k hk, hC, sg_cons, if_pos (by omega), Int.toNat_natCast] at hl
  exact hl

theorem link_end (zs : List Int) (k A : Nat) (hk : k = min zs.length 4) (hl : Link zs k A) : (sg 4 zs 1).2.2 = false := by
  unfold Link at hl
  rw [hl]
  by_cases h4 : 4 ≤ zs.length
  · have : 4 - k = 0 := by omega
    rw [this]; rfl
  · have : zs.drop k = [] := List.drop_eq_nil_of_le (by omega)
    rw [this]
    cases 4 - k <;> rfl

theorem sum_bound (k A C : Nat) (hA : A < 128 ^ k) : A + C % 128 * 128 ^ k < 128 ^ (k + 1) := by
  rw [Nat.pow_succ]
  have h1 : C % 128 ≤ 127 := by omega
  have h2 : C % 128 * 128 ^ k ≤ 127 * 128 ^ k := Nat.mul_le_mul_right _ h1
  omega

theorem pow_four (k : Nat) (hk : k ≤ 4) : 128 ^ k ≤ 268435456 := by
  have : 128 ^ k ≤ 128 ^ 4 := Nat.pow_le_pow_right (by decide) hk
  simpa using this

/-- What the groups at the front make, as it is told: nothing, if the last one is not there. -/
def sumG (zs : List Int) : Int × Int × Bool := if (sg 4 zs 1).2.2 then (((sg 4 zs 1).1 : Int), ((sg 4 zs 1).2.1 : Int), true) else (0, 0, false)

theorem sg_small (f : Nat) : ∀ (r : List Int) (S : Nat), (sg f r S).1 + S ≤ 128 ^ f * S ∧ (sg f r S).2.1 ≤ f := by
  induction f with
  | zero => intro r S; simp [sg]
  | succ f ih =>
    intro r S
    have hp : 1 ≤ 128 ^ f := Nat.pow_pos (by decide)
    have hb : 128 ^ (f + 1) * S = 128 ^ f * S * 128 := by rw [Nat.pow_succ, Nat.mul_assoc, Nat.mul_assoc, Nat.mul_comm 128 S]
    have hS : S ≤ 128 ^ f * S := Nat.le_mul_of_pos_left S hp
    cases r with
    | nil => simp [sg]; omega
    | cons c r =>
      rw [sg, hb]
      have h1 : c.toNat % 128 * S ≤ 127 * S := Nat.mul_le_mul_right _ (by omega)
      split
      · dsimp only
        omega
      · obtain ⟨i1, i2⟩ := ih r (S * 128)
        have e : 128 ^ f * (S * 128) = 128 ^ f * S * 128 := by rw [Nat.mul_assoc]
        rw [e] at i1
        dsimp only
        omega

end Go.Proofs.YtckpacifimpkgacGreat

namespace Go.Proofs.YtckpacifimpkgacGreat
open Go.RowKit Go.Shelf
set_option linter.unusedVariables false
attribute [local go_sem] Oper.semAt_some

/-- What group k adds, and whether others follow. -/
def partOf (zs : List Int) (k : Nat) : Nat := (zs.getD k 0).toNat % 128 * 128 ^ k
def moreOf (zs : List Int) (k : Nat) : Bool := decide (128 ≤ zs.getD k 0)

/-- What a round is handed. -/
abbrev encP (zs : List Int) (s : Nat × Nat) : Array Value := #[.int .i64 (partOf zs s.1 : Int), .bool (moreOf zs s.1)]

set_option maxRecDepth 100000 in
theorem part_tab : ∀ C : Nat, C < 256 → ∀ k : Nat, k < 4 → ((C % 128 * 128 ^ k : Nat) : Int) = wrap64 (wrap64 (bits .and .u8 (C : Int) 127) * 2 ^ (7 * k)) := by decide +kernel

set_option maxRecDepth 100000 in
theorem more_tab : ∀ C : Nat, C < 256 → decide (128 ≤ (C : Int)) = (bits .and .u8 (C : Int) 128 != 0) := by decide +kernel

set_option maxRecDepth 100000 in
set_option maxHeartbeats 1000000 in
theorem parts_iter (n B Bb b off len cap : Nat) (zs : List Int) (hn : 1 ≤ n) (hl : len ≤ 1099511627776) (hzl : zs.length = len) (I0 I1 : Nat × Nat → World → Prop) (Ix : Code → Nat × Nat → World → Prop) (Ie : Nat × Nat → World → Prop) (Ib : World → Prop)
    (hb : ∀ W, Ib W → Boxed W Bb 22 (.slice (some ⟨b, off, none⟩) len cap) ∧ len ≤ cap ∧ (0 < min len 4 → I0 (0, 0) W) ∧ (min len 4 = 0 → Ie (0, 0) W))
    (h0 : ∀ s W, I0 s W → s.1 < min len 4 ∧ Seg W (some ⟨b, off, none⟩) len zs)
    (h1 : ∀ s W, I1 s W → (s.1 + 1 < min len 4 → ∃ A, I0 (s.1 + 1, A) W) ∧ (s.1 + 1 = min len 4 → ∃ A, Ie (s.1 + 1, A) W)) :
    Iter Fence.wide n Tryz.prog B 96 #[.pointer (some ⟨Bb, 0, none⟩)] (encP zs) I0 I1 Ix Ie Ib := by
  intro l L0 L1 k0 k1 hY W hi hl0
  obtain ⟨hbx, hcap, hi0, hi1⟩ := hb W hi
  have hc := hbx.cell
  obtain ⟨mn, hmn⟩ : ∃ mn, min len 4 = mn := ⟨_, rfl⟩
  have qn : ∀ w : World, (Builtin.min_ #[3, 3] 3 #[.int .i64 len, .int .i64 4]).run Tryz.prog w = .ok (.int .i64 mn) w := fun w => by
    rw [run_min_int2]
    have : (if (4 : Int) < (len : Int) then (4 : Int) else (len : Int)) = (mn : Int) := by split <;> omega
    rw [this]
  have hmc : mn ≤ cap := by omega
  have hmi : (mn : Int) ≤ (cap : Int) := by omega
  have hm4 : mn ≤ 4 := by omega
  rw [hmn] at h0 h1 hi0 hi1
  have HMN : Hid (min len 4 = mn) := hmn
  clear hb hi hbx hmn
  refine callsIn_of_wp Tryz.func96 rfl trivial ?_ rfl
  simp only [Tryz.ntmps96, List.size_toArray, List.length_cons, List.length_nil, Nat.reduceAdd, Nat.reduceSub, Array.replicate_succ, Array.replicate_zero, List.push_toArray, List.append_toArray, List.nil_append, List.cons_append]
  gi_wp2
  gi_loopw [11] (fun i wr => ∃ k : Nat, k ≤ mn ∧ i = .int .i64 k ∧ (k < mn → ∃ A, I0 (k, A) wr) ∧ (k = mn → ∃ A, Ie (k, A) wr) ∧ L0 wr) (fun i _ => mn - (intOf i).toNat)
  case atStart => exact ⟨0, Nat.zero_le _, rfl, fun h => ⟨0, hi0 h⟩, fun h => ⟨0, hi1 h.symm⟩, hl0⟩
  case round =>
    clear hi0 hi1 hl0 qn hc
    obtain ⟨k, hk, rfl, hI, hE, hL⟩ := hrel
    by_cases hlt : k < mn
    · obtain ⟨A, hs⟩ := hI hlt
      obtain ⟨_, hseg⟩ := h0 _ _ hs
      obtain ⟨fn, tmps, assign, body, hy, hR⟩ := hY _ wr hs hL
      have hlen : k < len := by have := HMN.out; omega
      have hcell : wr.cell? ⟨b, off + k, none⟩ = some (.int .u8 (zs.getD k 0)) := by
        rcases hseg.2.2 with h | ⟨b', off', hbo, _, h⟩
        · omega
        · cases hbo
          exact h k hlen
      have hrg := hseg.range k
      obtain ⟨C, hC⟩ := Int.eq_ofNat_of_zero_le hrg.1
      simp only [encP, partOf, moreOf] at hy
      rw [hC, Int.toNat_natCast] at hy
      rw [hC] at hcell hrg
      have hc0 : (0 : Int) ≤ (C : Int) := hrg.1
      have hc1 : (C : Int) ≤ 255 := hrg.2
      clear hseg hrg
      rw [part_tab C (by omega) k (by omega), more_tab C (by omega)] at hy
      gi_wp2
      refine hR.mono ?_
      clear hR hy hcell hs hL hI hE
      rintro e W3 (⟨rfl, h3, l3⟩ | ⟨rfl, c, h3, l3⟩)
      · obtain ⟨j0, j1⟩ := h1 _ _ h3
        dsimp only at j0 j1
        gi_wp2
        go_roundw
        case rel => exact ⟨k + 1, by omega, by simp, j0, j1, l3⟩
        case measure => simp [intOf]; omega
      · gi_wp2
        refine bodyPost_ret (results_none rfl _ _ _) rfl ?_
        exact ⟨⟨_, rfl⟩, .inr ⟨c, _, h3, l3⟩⟩
    · obtain rfl : k = mn := by omega
      obtain ⟨A, he⟩ := hE rfl
      gi_wp2
      go_end0
      exact ⟨⟨_, rfl⟩, .inl ⟨⟨_, _, he⟩, hL⟩⟩

set_option maxHeartbeats 400000 in
theorem partsIn_any (a : Option Addr) (len cap : Nat) (w : World) (n : Nat) :
    CallsIn Fence.wide n Tryz.prog 83 #[.slice a len cap] w fun e w' => e = .returned (.func (.func 96) #[] #[.pointer (some ⟨w.heap.size, 0, none⟩)]) ∧ w' = w.alloc (.cells #[.slice a len cap] 22) := by
  refine callsIn_of_wp Tryz.func83 rfl trivial ?_ rfl
  simp only [Tryz.ntmps83, List.size_toArray, List.length_cons, List.length_nil, Nat.reduceAdd, Nat.reduceSub, Array.replicate_succ, Array.replicate_zero, List.push_toArray, List.append_toArray, List.nil_append, List.cons_append]
  gi_wp2
  go_ret
  exact ⟨rfl, rfl⟩

end Go.Proofs.YtckpacifimpkgacGreat
