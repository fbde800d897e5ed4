/- Lists of slices, cut out of one; where a slice that came in lies. -/
import Derived.Test.YtjaoaikcmbfnmaaWw
namespace Go.Proofs.Ytjaoaikcmbfnmaa
open Go.RowKit

/-- A slice that reads, and lies below a block. -/
structure Sl (w : World) (top : Nat) (A : Option Addr) (n c : Nat) (l : List UInt8) : Prop where
  rd : Rd w top A n c l
  low : ∀ a, A = some a → a.block < top
theorem Sl.below {w w' : World} {top n c : Nat} {A : Option Addr} {l : List UInt8} (h : Sl w top A n c l) (hb : Below top w w') : Sl w' top A n c l := ⟨h.rd.below hb, h.low⟩
theorem Sl.more {w : World} {top top' n c : Nat} {A : Option Addr} {l : List UInt8} (h : Sl w top A n c l) (ht : top ≤ top') : Sl w top' A n c l := ⟨h.rd.more ht, fun a ha => Nat.lt_of_lt_of_le (h.low a ha) ht⟩
/-- Where a slice's rest begins. -/
def restAt (A : Option Addr) (c k : Nat) : Option Addr := if c = k then A else A.map (·.add k)
theorem Sl.drop {w : World} {top n c k : Nat} {A : Option Addr} {l : List UInt8} (h : Sl w top A n c l) (hk : k ≤ n) : Sl w top (restAt A c k) (n - k) (c - k) (l.drop k) :=
  ⟨h.rd.drop_ hk, fun a ha => by
    unfold restAt at ha
    split at ha
    · exact h.low a ha
    · obtain ⟨b, hb, rfl⟩ := Option.map_eq_some_iff.1 ha
      rw [add_block]
      exact h.low b hb⟩
theorem Sl.take {w : World} {top n c k : Nat} {A : Option Addr} {l : List UInt8} (h : Sl w top A n c l) (hk : k ≤ n) : Sl w top A k c (l.take k) := ⟨h.rd.take_ hk, h.low⟩

theorem Rl.of {w : World} (L : List (List UInt8)) (cs : List Value) (hn : cs.length = L.length) (h : ∀ (j : Nat) x, L[j]? = some x → ∃ A n c, cs[j]? = some (.slice A n c) ∧ Sl w w.heap.size A n c x) (T : TypeId) :
    Rl (w.alloc (.cells cs.toArray T)) (w.alloc (.cells cs.toArray T)).heap.size (some ⟨w.heap.size, 0, none⟩) cs.length L := by
  have hb : Below w.heap.size w (w.alloc (.cells cs.toArray T)) := (Below.refl _ _).alloc (Nat.le_refl _) _
  have hs : (w.alloc (.cells cs.toArray T)).heap.size = w.heap.size + 1 := by simp
  refine ⟨hn.symm, fun j x hx => ?_⟩
  obtain ⟨A, n, c, hc, hr⟩ := h j x hx
  have h2 := (hr.below hb).more (show w.heap.size ≤ (w.alloc (.cells cs.toArray T)).heap.size by omega)
  refine ⟨_, A, n, c, rfl, by rw [hs]; exact Nat.lt_succ_self _, ?_, h2.rd, h2.low⟩
  have := (Bk.new w cs T).cell hc
  rwa [add_zero_mid]
theorem Rl.two {w : World} {A A2 : Option Addr} {n c n2 c2 : Nat} {l l2 : List UInt8} (h1 : Sl w w.heap.size A n c l) (h2 : Sl w w.heap.size A2 n2 c2 l2) (T : TypeId) :
    Rl (w.alloc (.cells #[.slice A n c, .slice A2 n2 c2] T)) (w.alloc (.cells #[.slice A n c, .slice A2 n2 c2] T)).heap.size (some ⟨w.heap.size, 0, none⟩) 2 [l, l2] :=
  Rl.of [l, l2] [.slice A n c, .slice A2 n2 c2] rfl (fun j x hx => by
    rcases j with _ | _ | j
    · simp only [List.getElem?_cons_zero, Option.some.injEq] at hx; subst hx; exact ⟨_, _, _, rfl, h1⟩
    · simp only [List.getElem?_cons_succ, List.getElem?_cons_zero, Option.some.injEq] at hx; subst hx; exact ⟨_, _, _, rfl, h2⟩
    · simp at hx) T
theorem Rl.three {w : World} {A A2 A3 : Option Addr} {n c n2 c2 n3 c3 : Nat} {l l2 l3 : List UInt8} (h1 : Sl w w.heap.size A n c l) (h2 : Sl w w.heap.size A2 n2 c2 l2) (h3 : Sl w w.heap.size A3 n3 c3 l3) (T : TypeId) :
    Rl (w.alloc (.cells #[.slice A n c, .slice A2 n2 c2, .slice A3 n3 c3] T)) (w.alloc (.cells #[.slice A n c, .slice A2 n2 c2, .slice A3 n3 c3] T)).heap.size (some ⟨w.heap.size, 0, none⟩) 3 [l, l2, l3] :=
  Rl.of [l, l2, l3] [.slice A n c, .slice A2 n2 c2, .slice A3 n3 c3] rfl (fun j x hx => by
    rcases j with _ | _ | _ | j
    · simp only [List.getElem?_cons_zero, Option.some.injEq] at hx; subst hx; exact ⟨_, _, _, rfl, h1⟩
    · simp only [List.getElem?_cons_succ, List.getElem?_cons_zero, Option.some.injEq] at hx; subst hx; exact ⟨_, _, _, rfl, h2⟩
    · simp only [List.getElem?_cons_succ, List.getElem?_cons_zero, Option.some.injEq] at hx; subst hx; exact ⟨_, _, _, rfl, h3⟩
    · simp at hx) T

theorem exec_slice31_lo {o : Oper} {a : Act} {w : World} (x y : Operand) (ho : o.op = .slice 26 x (some y) none none) {A : Option Addr} {n c k : Nat} {i : Int} (hx : a.eval x = .slice A n c) (hy : a.eval y = .int .i64 i) (hk : k ≤ n) (hi : i = k) :
    (execOp a.eval o).run Try.prog w = .ok (.value (.slice (restAt A c k) (n - k) (c - k))) w := by
  subst hi
  have h1 : (k : Int) ≤ (n : Int) := by omega
  unfold execOp
  simp only [ho, hx, hy, Option.map_some, Option.map_none]
  simp [Instr.sliceAt, Instr.slice, run_underlying Try.underlying26, Instr.sliceBounds, run_sliceBound, h1, Try.sizeOf5, restAt, go_sem]
theorem exec_slice31_mid {o : Oper} {a : Act} {w : World} (x y z : Operand) (ho : o.op = .slice 26 x (some y) (some z) none) {A : Option Addr} {n c k m : Nat} {i j : Int} (hx : a.eval x = .slice A n c) (hy : a.eval y = .int .i64 i) (hz : a.eval z = .int .i64 j) (hk : k ≤ m) (hc : m ≤ c) (hi : i = k) (hj : j = m) :
    (execOp a.eval o).run Try.prog w = .ok (.value (.slice (restAt A c k) (m - k) (c - k))) w := by
  subst hi
  subst hj
  have h2 : (m : Int) ≤ (c : Int) := by omega
  unfold execOp
  simp only [ho, hx, hy, hz, Option.map_some, Option.map_none]
  simp [Instr.sliceAt, Instr.slice, run_underlying Try.underlying26, Instr.sliceBounds, run_sliceBound, h2, Try.sizeOf5, restAt, go_sem]
  intro h; omega

/-- A slice that came in lies among the blocks. -/
theorem slice_low {W : World} {base : Nat} {A : Option Addr} {n c : Nat} (h : Value.okWide Try.prog W .any base 26 (.slice A n c)) : ∀ a, A = some a → a.block < W.heap.size := by
  rintro a rfl
  simp only [Value.okWide, Try.underlying26, Cell.okWide, Cell.ok] at h
  obtain ⟨_, _, _, _, row, cells, hs, _⟩ := h
  unfold World.shape? at hs
  by_cases hb : a.block < W.heap.size
  · exact hb
  · rw [Array.getElem?_eq_none (by omega)] at hs
    simp at hs
end Go.Proofs.Ytjaoaikcmbfnmaa
