/- A draw of one of so many. Disks that are right, and what is read off them; no program in it. How many sectors a new disk has. No program in it. Two steps of a region that draws its order: a call that leaves the world as it was, an append onto a row of the call's own. No program in it. An append onto a row of the call's own, in a region that draws: where the row lies behind it. No program in it. -/
import Derived.Test.YtenkpgnkkkgdmaeDoorM06
import Derived.Test.YtenkpgnkkkgdmaeDoorM01
import Derived.Test.YtenkpgnkkkgdmaeDoorM04
import Derived.Deep.RegionLaw
import Derived.Laws.AppendOwn
import Derived.WalkKit
namespace Go.Proofs.YtenkpgnkkkgdmaeDoor
open Go.RowKit
set_option linter.unusedVariables false

set_option maxRecDepth 10000 in
set_option maxHeartbeats 400000 in
theorem l1Once_any (B c : Nat) (a : Option Addr) (len cap : Nat) (zs : List Int) (n : Int) (w : World) (hcur : Cur w B c a len cap zs) (hl : len ≤ 1099511627776) (hn1 : 1 ≤ n) (hn2 : n ≤ 1000000) :
    Calls Tryd.prog 65 #[.pointer (some ⟨c, 0, none⟩), .int .i64 n] w fun e w' => ∃ b : Bool, e = .returned (.bool b) ∧ Cur w' B c a len cap zs ∧ w.grownBy w' (some c) := by
  have HC : Hid _ := hcur
  clear hcur
  go_enter Tryd.func65, Tryd.ntmps65
  go_wp2_with fail
  refine (l1Below_any B c a len cap zs _ _ HC.out hl hn1 hn2).mono ?_
  rintro e w1 ⟨x, rfl, hx0, hx1, hc1, hg1⟩
  have HC1 : Hid _ := hc1
  have HG1 : Hid _ := hg1
  clear hc1 hg1
  go_wp2_with fail
  go_ret
  exact ⟨_, rfl, HC1.out, HG1.out⟩

end Go.Proofs.YtenkpgnkkkgdmaeDoor

namespace Go.Proofs.YtenkpgnkkkgdmaeDoor
open Go.RowKit
set_option linter.unusedVariables false

/-- Whether a sector may be as it is. -/
def fitsD (x : ByteArray) : Bool := decide (x.size ≤ 64)

/-- A disk that is right. -/
def okD (xs ys : List ByteArray) : Bool := decide (xs.length = ys.length ∧ xs.length ≤ 200) && (xs.all fitsD && ys.all fitsD)

theorem okD_len {xs ys : List ByteArray} (h : ¬ (xs.length = ys.length ∧ xs.length ≤ 200)) : okD xs ys = false := by
  rw [okD, decide_eq_false h, Bool.false_and]

theorem okD_bad {xs ys : List ByteArray} {k : Nat} {x y : ByteArray} (hx : xs[k]? = some x) (hy : ys[k]? = some y) (h : 64 < x.size ∨ 64 < y.size) : okD xs ys = false := by
  rcases h with h | h
  · have : xs.all fitsD = false := by
      rw [List.all_eq_false]
      exact ⟨x, List.mem_of_getElem? hx, by simp [fitsD]; omega⟩
    rw [okD, this, Bool.false_and, Bool.and_false]
  · have : ys.all fitsD = false := by
      rw [List.all_eq_false]
      exact ⟨y, List.mem_of_getElem? hy, by simp [fitsD]; omega⟩
    rw [okD, this, Bool.and_false, Bool.and_false]

theorem okD_good {xs ys : List ByteArray} (hl : xs.length = ys.length) (hb : xs.length ≤ 200) (h : ∀ (i : Nat) (x y : ByteArray), xs[i]? = some x → ys[i]? = some y → x.size ≤ 64 ∧ y.size ≤ 64) : okD xs ys = true := by
  have h1 : xs.all fitsD = true := by
    rw [List.all_eq_true]
    intro x hx
    obtain ⟨i, hi, rfl⟩ := List.mem_iff_getElem.1 hx
    have := (h i _ _ (List.getElem?_eq_getElem hi) (List.getElem?_eq_getElem (by omega))).1
    simp [fitsD, this]
  have h2 : ys.all fitsD = true := by
    rw [List.all_eq_true]
    intro y hy
    obtain ⟨i, hi, rfl⟩ := List.mem_iff_getElem.1 hy
    have := (h i _ _ (List.getElem?_eq_getElem (by omega)) (List.getElem?_eq_getElem hi)).2
    simp [fitsD, this]
  rw [okD, h1, h2, decide_eq_true ⟨hl, hb⟩]
  rfl

theorem okD_iff {xs ys : List ByteArray} : okD xs ys = true ↔ xs.length = ys.length ∧ xs.length ≤ 200 ∧ (∀ x ∈ xs, x.size ≤ 64) ∧ ∀ y ∈ ys, y.size ≤ 64 := by
  simp [okD, fitsD, List.all_eq_true, and_assoc]

/-- The sector at i. -/
def secAt (xs : List ByteArray) (i : Int) : ByteArray := if 0 ≤ i ∧ i < xs.length then xs.getD i.toNat ⟨#[]⟩ else ⟨#[]⟩

end Go.Proofs.YtenkpgnkkkgdmaeDoor

namespace Go.Proofs.YtenkpgnkkkgdmaeDoor
open Go.RowKit
set_option linter.unusedVariables false

/-- How many sectors a new disk has. -/
def newN (n : Int) : Nat := if n ≤ 200 then n.toNat else 0

end Go.Proofs.YtenkpgnkkkgdmaeDoor

namespace Go.Proofs.YtenkpgnkkkgdmaeDoor
open Go.RowKit
set_option linter.unusedVariables false

theorem step_append_own {P : Program} {ops : Array Oper} {o : Oper} {a : Act} {w : World} {K : Act → World → Prop} {Q : Exit → Act → World → Prop} {E : Prop}
    (hg : o.guard = none) (s x : Operand) (t : TypeId) (ho : o.op = .call { callee := .builtin .append, args := #[s, x], argTypes := #[t, t] })
    (base : Nat) (e : TypeId) (i : TypeInfo) (z : Value) (size bytes : Nat) (ht : P.underlying t = some (.slice e)) (hi : P.info? e = some i) (hz : i.zero = some z)
    (hsize : i.size = size) (hby : i.bytes = bytes) (hzs : z.cells.size = size) (hsz : 0 < size)
    (v : Value) (n : Nat) (xs : List Value) (hs : a.eval s = v) (hown : w.ownsRow base e size v n xs)
    (ad : Addr) (m c : Nat) (news : List Value) (hx : a.eval x = .slice (some ad) m c) (hl : news.length = m * size) (hnews : ∀ j u, news[j]? = some u → w.cell? (ad.add j) = some u) (h1 : ∀ u ∈ news, u.oneCell' = true)
    (h63 : n + m ≤ maxLen) (hbytes : (n + m) * bytes ≤ 140737488355328) (hbase : base ≤ w.heap.size)
    (h : ∀ v' w', w'.ownsRow base e size v' (n + m) (xs ++ news) → w.grownBy w' v.ownBlock → K (a.put o.dst v') w') :
    if Region.wanted o (yielded ops a.tmps) = true then Oper.wp P o a w K Q else E := by
  have hw : Region.wanted o (yielded ops a.tmps) = true := by simp [Region.wanted, hg]
  rw [if_pos hw]
  exact wp_append_own w s x t ho base e i z size bytes ht hi hz hsize hby hzs hsz v n xs hs hown ad m c news hx hl hnews h1 h63 hbytes hbase fun v' w' h2 h3 _ => h v' w' h2 h3

theorem step_call_same {P : Program} {ops : Array Oper} {o : Oper} {a : Act} {w : World} {K : Act → World → Prop} {Q : Exit → Act → World → Prop} {E : Prop}
    (hg : o.guard = none) (f : FuncId) (x : Operand) (t : TypeId) (ho : o.op = .call { callee := .value (.func f), args := #[x], argTypes := #[t] })
    (hent : ∀ args w, (callFunc f args).run P w = .ok (.enter f args) w) (u v : Value) (hx : a.eval x = u)
    (hc : Calls P f #[u] w fun e w' => e = .returned v ∧ w' = w) (h : K (a.put o.dst v) w) :
    if Region.wanted o (yielded ops a.tmps) = true then Oper.wp P o a w K Q else E := by
  have hw : Region.wanted o (yielded ops a.tmps) = true := by simp [Region.wanted, hg]
  rw [if_pos hw]
  have hf : a.eval (.func f) = .func (.func f) #[] #[] := rfl
  unfold Oper.wp
  simp [execOp, ho, resolve, invoke, Deferred.ofValue, hent, hf, hx, Oper.upon_enter]
  refine hc.mono ?_
  rintro e w' ⟨rfl, rfl⟩
  exact h

end Go.Proofs.YtenkpgnkkkgdmaeDoor

namespace Go.Proofs.YtenkpgnkkkgdmaeDoor
open Go.RowKit
set_option linter.unusedVariables false

theorem step_append_where {P : Program} {ops : Array Oper} {o : Oper} {a : Act} {w : World} {K : Act → World → Prop} {Q : Exit → Act → World → Prop} {E : Prop}
    (hg : o.guard = none) (s x : Operand) (t : TypeId) (ho : o.op = .call { callee := .builtin .append, args := #[s, x], argTypes := #[t, t] })
    (base : Nat) (e : TypeId) (i : TypeInfo) (z : Value) (size bytes : Nat) (ht : P.underlying t = some (.slice e)) (hi : P.info? e = some i) (hz : i.zero = some z)
    (hsize : i.size = size) (hby : i.bytes = bytes) (hzs : z.cells.size = size) (hsz : 0 < size)
    (v : Value) (n : Nat) (xs : List Value) (hs : a.eval s = v) (hown : w.ownsRow base e size v n xs)
    (ad : Addr) (m c : Nat) (hm : 0 < m) (news : List Value) (hx : a.eval x = .slice (some ad) m c) (hl : news.length = m * size) (hnews : ∀ j u, news[j]? = some u → w.cell? (ad.add j) = some u) (h1 : ∀ u ∈ news, u.oneCell' = true)
    (h63 : n + m ≤ maxLen) (hbytes : (n + m) * bytes ≤ 140737488355328) (hbase : base ≤ w.heap.size)
    (h : ∀ v' w', w'.ownsRow base e size v' (n + m) (xs ++ news) → w.grownBy w' v.ownBlock → (v'.ownBlock = v.ownBlock ∨ v'.ownBlock = some w.heap.size) → K (a.put o.dst v') w') :
    if Region.wanted o (yielded ops a.tmps) = true then Oper.wp P o a w K Q else E := by
  have hw : Region.wanted o (yielded ops a.tmps) = true := by simp [Region.wanted, hg]
  rw [if_pos hw]
  obtain ⟨v', w', hr, h2, h3, _⟩ := run_append_own (P := P) w base t o.type e i z size bytes ht hi hz hsize hby hzs hsz v n xs hown ad m c news hl hnews h1 h63 hbytes hbase
  have hsmall : n + m ≤ 9223372036854775807 := by simp only [maxLen] at h63; omega
  have key : v'.ownBlock = v.ownBlock ∨ v'.ownBlock = some w.heap.size := by
    subst hsize
    subst hby
    rcases hown.2 with ⟨rfl, rfl⟩ | ⟨g, cap, cur, rfl, hbg, hg2, hnc, hcm, hcs, htake⟩
    · have hr2 := run_append_nil (P := P) w t o.type e i z ht hi hz ad m c news hl hnews (by omega) (by omega) (by have hb := hbytes; simp only [Nat.zero_add] at hb; omega)
      rw [hr] at hr2
      injection hr2 with e1 _
      rw [e1]
      exact .inr rfl
    · by_cases hroom : n + m ≤ cap
      · have hfit : n * i.size + news.length ≤ cur.size := by rw [hl, hcs, ← Nat.add_mul]; exact Nat.mul_le_mul_right _ hroom
        have hr2 := run_append_room (P := P) w t o.type e i ht hi g n cap cur hg2 ad m c news hl hnews h1 hroom hfit
        rw [hr] at hr2
        injection hr2 with e1 _
        rw [e1]
        exact .inl rfl
      · have holds : ∀ j u, xs[j]? = some u → w.cell? ((⟨g, 0, none⟩ : Addr).add j) = some u := hown.cells (g := g) rfl
        have hr2 := run_append_grow (P := P) w t o.type e i z ht hi hz ⟨g, 0, none⟩ n cap xs hown.1 holds ad m c news hl hnews (by omega) (by omega) (growslice_fits (by omega) hbytes)
        rw [hr] at hr2
        injection hr2 with e1 _
        rw [e1]
        exact .inr rfl
  unfold Oper.wp execOp
  simp only [ho, resolve, invoke, builtin, Sem.run_bind, Sem.run_pure, Result.andThen_ok, List.map_toArray, List.map_cons, List.map_nil, hs, hx, hr]
  exact h v' w' h2 h3 key

end Go.Proofs.YtenkpgnkkkgdmaeDoor
