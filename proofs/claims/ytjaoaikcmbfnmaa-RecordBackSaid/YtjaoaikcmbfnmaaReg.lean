/- A region that draws its order, walked in one order: what a call has left stays, as a relation R between worlds says; what is read of it is taken at once. -/
import Derived.Test.YtjaoaikcmbfnmaaMem
import Derived.Deep.RegionHeld3
namespace Go.Proofs.Ytjaoaikcmbfnmaa
open Go.RowKit

/-- A relation that tells what stays: every world stays as itself, and step by step. -/
structure Stays (R : World → World → Prop) : Prop where
  refl : ∀ w, R w w
  trans : ∀ {a b c}, R a b → R b c → R a c

/-- All that was there stays. -/
def Old (w w' : World) : Prop := Below w.heap.size w w'
theorem Old.stays : Stays Old := ⟨fun w => Below.refl _ w, fun h k => bl_call h k⟩
/-- All that was there stays, but for the blocks of which 'may' says so. -/
structure Kp (may : Nat → Prop) (w w' : World) : Prop where
  os : w'.os = w.os
  tape : w'.tape = w.tape
  output : w'.output = w.output
  size : w.heap.size ≤ w'.heap.size
  block : ∀ k, k < w.heap.size → ¬ may k → w'.heap[k]? = w.heap[k]?
theorem Kp.stays (may : Nat → Prop) : Stays (Kp may) :=
  ⟨fun _ => ⟨rfl, rfl, rfl, Nat.le_refl _, fun _ _ _ => rfl⟩, fun h k => ⟨k.os.trans h.os, k.tape.trans h.tape, k.output.trans h.output, Nat.le_trans h.size k.size, fun i hi hm => (k.block i (Nat.lt_of_lt_of_le hi h.size) hm).trans (h.block i hi hm)⟩⟩

section
variable {P : Program} {ops : Array Oper} {Q : Exit → Act → World → Prop} {R : World → World → Prop}

theorem held_weaken {md : Region.Mode} {S S' : World → Prop} (h : ∀ W, S' W → S W) : ∀ (fuel : Nat) (listed : Array Bool) (a : Act) (w : World), wpAnyH P md ops Q S' fuel listed a w → wpAnyH P md ops Q S fuel listed a w
  | 0, _, _, _, k => k
  | fuel + 1, _, _, _, k => ⟨k.1, fun i hi => wpOp_mono (fun a' w' r => ⟨h _ r.1, held_weaken h fuel _ a' w' r.2⟩) (k.2 i hi)⟩

theorem reg_start (R : World → World → Prop) {id : Nat} {a : Act} {w : World} (hm : P.follows .mixedOrders = true)
    (h : wpAnyH P .any ops Q (R w.drew) ops.size (Array.replicate ops.size false) a w.drew) : (Code.region id ops true).wp P Q a w := wp_region_held hm h

theorem reg_take (hR : Stays R) (i : Nat) {oi : Oper} {v : Value} {fuel : Nat} {listed : Array Bool} {a : Act} {w : World} (hi : ops[i]? = some oi)
    (hs : Region.noSelect ops = true) (hf : Region.free .any ops listed i = true) (hr : (Region.ready .any ops listed).contains i = true)
    (hQ : ∀ c a w, Q (.panic c) (a.put oi.dst v) w → Q (.panic c) a w) (hw : Region.wanted oi (yielded ops a.tmps) = true) (hy : ∀ W, R w W → (execOp a.eval oi).run P W = .ok (.value v) W)
    (h : wpAnyH P .any ops Q (R w) fuel (listed.setIfInBounds i true) (a.put oi.dst v) w) : wpAnyH P .any ops Q (R w) (fuel + 1) listed a w :=
  wpAnyH_take hi hs hf hr hQ (Or.inl ⟨hw, hy⟩) (hR.refl w) h

theorem reg_skip (hR : Stays R) (i : Nat) {oi : Oper} {fuel : Nat} {listed : Array Bool} {a : Act} {w : World} (hi : ops[i]? = some oi)
    (hs : Region.noSelect ops = true) (hf : Region.free .any ops listed i = true) (hr : (Region.ready .any ops listed).contains i = true)
    (hQ : ∀ c a w, Q (.panic c) (a.put oi.dst undef) w → Q (.panic c) a w) (hw : Region.wanted oi (yielded ops a.tmps) = false)
    (h : wpAnyH P .any ops Q (R w) fuel (listed.setIfInBounds i true) (a.put oi.dst undef) w) : wpAnyH P .any ops Q (R w) (fuel + 1) listed a w :=
  wpAnyH_take hi hs hf hr hQ (Or.inr ⟨hw, rfl⟩) (hR.refl w) h

theorem reg_step (hR : Stays R) (i : Nat) {o : Oper} {fuel : Nat} {listed : Array Bool} {a : Act} {w : World} (hr : Region.ready .any ops listed = [i]) (ho : ops[i]? = some o)
    (h : ∀ K : Act → World → Prop, Shut (∀ a' w', R w w' → wpAnyH P .any ops Q (R w') fuel (listed.setIfInBounds i true) a' w' → K a' w') →
      if Region.wanted o (yielded ops a.tmps) = true then Oper.wp P o a w K Q else K (a.put o.dst undef) w) : wpAnyH P .any ops Q (R w) (fuel + 1) listed a w := by
  refine wpAnyH_all hr (by simp) fun j hj => ?_
  obtain rfl : j = i := by simpa using hj
  have h1 := h (fun a' w' => R w w' ∧ wpAnyH P .any ops Q (R w) fuel (listed.setIfInBounds j true) a' w') (fun a' w' hw hh => ⟨hw, held_weaken (fun W hW => hR.trans hw hW) _ _ _ _ hh⟩)
  unfold wpOp
  simp only [ho]
  split
  · rename_i hw; rw [if_pos hw] at h1; exact .inl h1
  · rename_i hw; rw [if_neg hw] at h1; exact h1

theorem reg_done {S : World → Prop} {listed : Array Bool} {a : Act} {w : World} (hr : Region.ready .any ops listed = []) (h : Q .normal a w) (fuel : Nat) : wpAnyH P .any ops Q S fuel listed a w := wpAnyH_done hr h fuel
end

theorem follows_mixed : Try.prog.follows .mixedOrders = true := by kernel_rfl

/-- append, as one operation. -/
theorem wp_app {w : World} {o : Oper} {a : Act} {K : Act → World → Prop} {Q : Exit → Act → World → Prop} (s x : Operand)
    (ho : o.op = .call { callee := .builtin .append, args := #[s, x], argTypes := #[26, 26] })
    {base : Nat} {v : Value} {xs : List UInt8} (hs : a.eval s = v) (hown : Ow w base v xs) {top n c : Nat} {A : Option Addr} {l : List UInt8} (hx : a.eval x = .slice A n c) (hr : Rd w top A n c l)
    (hb : xs.length + n ≤ 140737488355328) (hbase : base ≤ w.heap.size)
    (h : ∀ v' w', Ow w' base v' (xs ++ l) → w.grownBy w' v.ownBlock → K (a.put o.dst v') w') : o.wp Try.prog a w K Q := by
  obtain ⟨v', w', hrun, h2, h3, _⟩ := run_app hown hr hb hbase o.type
  unfold Oper.wp execOp
  simp only [ho, resolve, invoke, builtin, Sem.run_bind, Sem.run_pure, Result.andThen_ok, List.map_toArray, List.map_cons, List.map_nil, hs, hx, hrun]
  exact h v' w' h2 h3

theorem exec_load_row {P : Program} {o : Oper} {a : Act} {w : World} (ty : TypeId) (x : Operand) (ho : o.op = .load ty x)
    (g : Nat) (hx : a.eval x = .pointer (some ⟨g, 0, none⟩)) (t : TypeId) (cs : Array Value) (fr : Nat × Nat) (d : TypeDesc) (hg : w.heap[g]? = some (.cells cs t fr))
    (hu : P.underlying ty = some d) (hd : (match d with | .struct _ | .array _ _ => true | _ => false) = true) (hi : (P.info? ty).map (·.size) = some cs.size) :
    (execOp a.eval o).run P w = .ok (.value (.agg cs)) w := by
  unfold execOp
  simp only [ho, hx, Instr.loadAt, Instr.sureAddr, Sem.run_bind, Sem.run_pure, Result.andThen_ok, run_loadVar_row w g t ty cs fr d hg hu hd hi]

section
variable {w w' w0 : World} {g top n c : Nat} {A : Option Addr} {l : List UInt8} {may : Nat → Prop}
theorem Kp.of_only (h : Only g w w') : Kp (· = g) w w' := ⟨h.os, h.tape, h.output, h.size, fun k hk hm => h.block k hk (fun e => hm (by injection e))⟩
theorem Kp.of_old (h : Below w.heap.size w w') : Kp may w w' := ⟨h.os, h.tape, h.output, h.size, fun k hk _ => h.block k hk⟩
theorem Kp.only (h : Kp (· = g) w w') : Only g w w' := ⟨h.os, h.tape, h.output, h.size, fun k hk hm => h.block k hk (fun e => hm (by rw [e]))⟩
theorem bl_kp (k : Below w0.heap.size w0 w) (h : Kp may w w') (hm : ∀ k, may k → w0.heap.size ≤ k) : Below w0.heap.size w0 w' :=
  k.trans ⟨h.os, h.tape, h.output, h.size, fun i hi => h.block i (by have := k.size; omega) (fun e => by have := hm i e; omega)⟩
theorem Kp.cell (h : Kp may w w') {p : Addr} (hp : p.block < w.heap.size) (hm : ¬ may p.block) : w'.cell? p = w.cell? p := World.cell?_of_block (h.block p.block hp hm)
theorem Rd.kp (h : Rd w top A n c l) (hk : Kp may w w') (ht : top ≤ w.heap.size) (hm : ∀ k, may k → top ≤ k) : Rd w' top A n c l :=
  h.keep fun p hp => hk.cell (by omega) (fun e => by have := hm _ e; omega)
/-- A block of bytes, as a slice that reads. -/
theorem Rd.of_block {t : TypeId} {fr : Nat × Nat} (hg : w.heap[g]? = some (.cells (cs8 l).toArray t fr)) (ht : g < top) : Rd w top (some ⟨g, 0, none⟩) l.length l.length l := by
  refine ⟨rfl, Nat.le_refl _, fun _ => ⟨_, rfl, ht, fun j u hu => ?_⟩⟩
  have hadd : (⟨g, 0, none⟩ : Addr).add j = ⟨g, j, none⟩ := by unfold Addr.add; split <;> simp_all
  rw [hadd, cell_of_row w g j _ t fr hg]
  simp [cs8, hu]
end
end Go.Proofs.Ytjaoaikcmbfnmaa
