/- Regions that draw their order: what they leave, told as what they put; calls whose answers are told in one form. -/
import Derived.Test.YtjaoaikcmbfnmaaFm
import Derived.Test.YtjaoaikcmbfnmaaPk
import Derived.Test.YtjaoaikcmbfnmaaBo
namespace Go.Proofs.Ytjaoaikcmbfnmaa
set_option maxRecDepth 100000
set_option linter.unusedSimpArgs false
set_option linter.unusedVariables false
open Go.RowKit

section
variable {P : Program} {ops : Array Oper} {Q : Exit → Act → World → Prop} {R : World → World → Prop}
/-- Some are ready: each way. -/
theorem reg_fork (hR : Stays R) {rs : List Nat} {fuel : Nat} {listed : Array Bool} {a : Act} {w : World} (hr : Region.ready .any ops listed = rs) (hne : rs ≠ [])
    (h : ∀ i, i ∈ rs → ∃ o, ops[i]? = some o ∧ ∀ K : Act → World → Prop, Shut (∀ a' w', R w w' → wpAnyH P .any ops Q (R w') fuel (listed.setIfInBounds i true) a' w' → K a' w') →
      if Region.wanted o (yielded ops a.tmps) = true then Oper.wp P o a w K Q else K (a.put o.dst undef) w) : wpAnyH P .any ops Q (R w) (fuel + 1) listed a w := by
  refine wpAnyH_all hr hne fun j hj => ?_
  obtain ⟨o, ho, h1⟩ := h j hj
  have h1 := h1 (fun a' w' => R w w' ∧ wpAnyH P .any ops Q (R w) fuel (listed.setIfInBounds j true) a' w') (fun a' w' hw hh => ⟨hw, held_weaken (fun W hW => hR.trans hw hW) _ _ _ _ hh⟩)
  unfold wpOp
  simp only [ho]
  split
  · rename_i hw; rw [if_pos hw] at h1; exact .inl h1
  · rename_i hw; rw [if_neg hw] at h1; exact h1
/-- Values put, one after another. -/
def puts (a : Act) (l : List (Nat × Value)) : Act := l.foldl (fun a x => a.put (some x.1) x.2) a
theorem region_meetQ {c : Code} {a : Act} {w : World} (S : Act → Act → World → Prop) (h1 : c.wp P (fun e a' w' => e = .normal ∧ S a a' w') a w) (h2 : ∀ a' w', S a a' w' → Q .normal a' w') : c.wp P Q a w :=
  Code.wp_mono (by rintro e a' w' ⟨rfl, h⟩; exact h2 a' w' h) h1
end

/-- What Bytes answers. -/
def BP (C : List UInt8) (k : UInt8) (d S R : List UInt8) (err : Int) : Prop := (Vr k d ∧ S = nextR C k d ∧ R = recB C k d ∧ err = 0) ∨ (¬ Vr k d ∧ S = C0 ∧ R = [] ∧ err = 2)
theorem BP.len {C : List UInt8} {k : UInt8} {d S R : List UInt8} {err : Int} (h : BP C k d S R err) : S.length = 32 ∧ R.length ≤ 8210 := by
  rcases h with ⟨hv, rfl, rfl, _⟩ | ⟨_, rfl, rfl, _⟩
  · refine ⟨nextR_length _ _ _, ?_⟩
    rw [recB_length]
    have := numSize_bd d.length
    have := hv.2
    omega
  · exact ⟨rfl, Nat.zero_le _⟩
theorem Bytes_any {A : Option Addr} {n c : Nat} {k : UInt8} {C l : List UInt8} (w : World) (hC : C.length = 32) (hr : Rd w w.heap.size A n c l) :
    Calls Try.prog 8 #[.agg (cs8 C).toArray, .agg #[.int .u8 (k.toNat : Int), .slice A n c]] w fun e w' => ∃ v S R err, e = .returned (.tuple #[v, .agg (cs8 S).toArray, .int .i64 err]) ∧ BP C k l S R err ∧ Ow w' w.heap.size v R ∧ Below w.heap.size w w' := by
  have hl := hr.len
  by_cases hv : Vr k l
  · refine (Bytes_good w hC hr hv.1 (by have := hv.2; omega)).mono ?_
    rintro e w' ⟨v, rfl, ho, hb⟩
    exact ⟨v, _, _, 0, rfl, .inl ⟨hv, rfl, rfl, rfl⟩, ho, hb⟩
  · refine (Bytes_bad w (fun h => hv ⟨h.1, by have := h.2; omega⟩)).mono ?_
    rintro e w' ⟨rfl, hb⟩
    exact ⟨_, C0, [], 2, rfl, .inr ⟨hv, rfl, rfl, rfl⟩, World.ownsRow_nil _ _ _ _, hb⟩

/-- Block g is none of the records'. -/
def Off (g top : Nat) (A : Option Addr) (l : List Rv) : Prop := (∀ ad, A = some ad → ad.block < top → g ≠ ad.block) ∧ ∀ x ∈ l, ∀ ad, x.A = some ad → ad.block < top → g ≠ ad.block
theorem Off.new {g top : Nat} {A : Option Addr} {l : List Rv} (h : top ≤ g) : Off g top A l := ⟨fun ad _ h1 => by omega, fun x _ ad _ h1 => by omega⟩
theorem RsNew.off {g top base : Nat} {A : Option Addr} {l : List Rv} (h : RsNew base A l) (hg : g < base) : Off g top A l := ⟨fun ad e _ => by have := h.1 ad e; omega, fun x hx ad e _ => by have := h.2 x hx ad e; omega⟩
/-- Records, where a block is written that is none of theirs. -/
theorem Rs.grown {w w' : World} {top n c : Nat} {A : Option Addr} {l : List Rv} {g : Nat} (h : Rs w top A n c l) (ht : top ≤ w.heap.size) (hg : w.grownBy w' (some g)) (hf : Off g top A l) : Rs w' top A n c l := by
  have hb : ∀ b, b < top → g ≠ b → w'.heap[b]? = w.heap[b]? := fun b h1 h2 => hg.block b (by omega) (fun e => by injection e with e; exact h2 e.symm)
  refine ⟨h.1, h.2.1, fun x hx => ?_, fun hn => ?_⟩
  · have hx1 := h.2.2.1 x hx
    refine ⟨hx1.1, hx1.2.1, fun hd => ?_⟩
    obtain ⟨ad, e, ht, hc⟩ := hx1.2.2 hd
    exact ⟨ad, e, ht, fun j u hu => (World.cell?_of_block (by rw [add_block]; exact hb _ ht (hf.2 x hx ad e ht))).trans (hc j u hu)⟩
  · obtain ⟨ad, e, ht, hc⟩ := h.2.2.2 hn
    exact ⟨ad, e, ht, fun j x hx i v hv => (World.cell?_of_block (by rw [add_block]; exact hb _ ht (hf.1 ad e ht))).trans (hc j x hx i v hv)⟩
/-- The records from the k-th on. -/
def rest2 (A : Option Addr) (c k : Nat) : Option Addr := if c = k then A else A.map (·.add (k * 2))
theorem Rs.drop_ {w : World} {top n c : Nat} {A : Option Addr} {l : List Rv} (h : Rs w top A n c l) {k : Nat} (hk : k ≤ n) : Rs w top (rest2 A c k) (n - k) (c - k) (l.drop k) := by
  refine ⟨by rw [List.length_drop, h.1], by have := h.2.1; omega, fun x hx => h.2.2.1 x (List.mem_of_mem_drop hx), fun hn => ?_⟩
  obtain ⟨ad, rfl, hb, hcell⟩ := h.2.2.2 (by omega)
  have := h.2.1
  refine ⟨ad.add (k * 2), by rw [rest2, if_neg (by omega)]; rfl, by rw [add_block]; exact hb, fun j x hx i v hv => ?_⟩
  rw [List.getElem?_drop] at hx
  have := hcell (k + j) x hx i v hv
  rw [add_add]
  rwa [show k * 2 + (j * 2 + i) = (k + j) * 2 + i by omega]
theorem Rs.take_ {w : World} {top n c : Nat} {A : Option Addr} {l : List Rv} (h : Rs w top A n c l) {k : Nat} (hk : k ≤ n) : Rs w top A k c (l.take k) := by
  refine ⟨by rw [List.length_take, h.1]; omega, by have := h.2.1; omega, fun x hx => h.2.2.1 x (List.mem_of_mem_take hx), fun hn => ?_⟩
  obtain ⟨ad, rfl, hb, hcell⟩ := h.2.2.2 (by omega)
  refine ⟨ad, rfl, hb, fun j x hx i v hv => hcell j x ?_ i v hv⟩
  rw [List.getElem?_take] at hx
  split at hx
  · exact hx
  · cases hx
theorem exec_slice39_lo {o : Oper} {a : Act} {w : World} (x y : Operand) (ho : o.op = .slice 39 x (some y) none none) {A : Option Addr} {n c k : Nat} {i : Int} (hx : a.eval x = .slice A n c) (hy : a.eval y = .int .i64 i) (hk : k ≤ n) (hi : i = k) :
    (execOp a.eval o).run Try.prog w = .ok (.value (.slice (rest2 A c k) (n - k) (c - k))) w := by
  subst hi
  have h1 : (k : Int) ≤ (n : Int) := by omega
  unfold execOp
  simp only [ho, hx, hy, Option.map_some, Option.map_none]
  simp [Instr.sliceAt, Instr.slice, run_underlying Try.underlying39, Instr.sliceBounds, run_sliceBound, h1, Try.sizeOf31, rest2, go_sem]
theorem exec_slice39_hi {o : Oper} {a : Act} {w : World} (x y : Operand) (ho : o.op = .slice 39 x none (some y) none) {A : Option Addr} {n c h : Nat} {i : Int} (hx : a.eval x = .slice A n c) (hy : a.eval y = .int .i64 i) (hh : h ≤ c) (hi : i = h) :
    (execOp a.eval o).run Try.prog w = .ok (.value (.slice A h c)) w := by
  subst hi
  have h1 : (h : Int) ≤ (c : Int) := by omega
  unfold execOp
  simp only [ho, hx, hy, Option.map_some, Option.map_none]
  simp [Instr.sliceAt, Instr.slice, run_underlying Try.underlying39, Instr.sliceBounds, run_sliceBound, h1, Try.sizeOf31, go_sem]
theorem wpList_exec {ops : Array Oper} {rest : List Oper} {op : Oper} {a : Act} {w : World} {Q : Exit → Act → World → Prop} (hgd : op.guard = none) (v : Value) (hx : (execOp a.eval op).run Try.prog w = .ok (.value v) w)
    (h : wpList Try.prog ops Q rest (a.put op.dst v) w) : wpList Try.prog ops Q (op :: rest) a w :=
  wpList_plain hgd fun _ hK => by
    unfold Oper.wp
    rw [hx]
    exact hK _ _ h

theorem Records_yes (w : World) {n c n2 c2 : Nat} {A A2 : Option Addr} {l l2 : List Rv} (h : Rs w w.heap.size A n c l) (h2 : Rs w w.heap.size A2 n2 c2 l2) (hn4 : n ≤ 1073741824) (he : l.map Rv.r = l2.map Rv.r) :
    Calls Try.prog 20 #[.slice A n c, .slice A2 n2 c2] w fun e w' => e = .returned (.bool true) ∧ Below w.heap.size w w' := by
  refine (Records_any w h h2 hn4).mono ?_
  rintro e w' ⟨rfl, hb⟩
  rw [decide_eq_true he]
  exact ⟨rfl, hb⟩
theorem recsB_take (C : List UInt8) (rs : List (UInt8 × List UInt8)) (i : Nat) : recsB C rs = recsB C (rs.take i) ++ recsB (endR C (rs.take i)) (rs.drop i) := by
  rw [← recsB_append, List.take_append_drop]
theorem endR_take (C : List UInt8) (rs : List (UInt8 × List UInt8)) (i : Nat) : endR C rs = endR (endR C (rs.take i)) (rs.drop i) := by
  rw [← endR_append, List.take_append_drop]
theorem rs_at {rs : List (UInt8 × List UInt8)} {i : Nat} (h : i < rs.length) : rs.drop i = rs[i] :: rs.drop (i + 1) := List.drop_eq_getElem_cons h
theorem recs_step (C : List UInt8) (rs : List (UInt8 × List UInt8)) (i : Nat) (h : i < rs.length) :
    recsB C (rs.take (i + 1)) = recsB C (rs.take i) ++ recB (endR C (rs.take i)) rs[i].1 rs[i].2 ∧ endR C (rs.take (i + 1)) = nextR (endR C (rs.take i)) rs[i].1 rs[i].2 := by
  have ht : rs.take (i + 1) = rs.take i ++ [rs[i]] := by rw [List.take_add_one, List.getElem?_eq_getElem h]; rfl
  rw [ht, recsB_append, endR_append]
  exact ⟨by simp [recsB], by simp [endR]⟩
end Go.Proofs.Ytjaoaikcmbfnmaa
