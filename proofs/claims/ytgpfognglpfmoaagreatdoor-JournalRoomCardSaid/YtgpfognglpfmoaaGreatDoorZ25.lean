/- A journal: the steps of a beginning. -/
import Derived.Test.YtgpfognglpfmoaaGreatDoorZ24
set_option linter.unusedSimpArgs false
set_option linter.unusedVariables false
namespace Go.Proofs.YtgpfognglpfmoaaGreatDoor
set_option maxRecDepth 8192
set_option linter.unusedSimpArgs false
set_option linter.unusedVariables false
open Go.RowKit Go.Shelf

attribute [local go_sem] Oper.semAt_some

/-- A journal's cells, whatever its log. -/
def jv (p area : Nat) (L : Value) (syn : Nat) : List Value := [ptr p, .int .i64 (area : Int), L, .int .i64 (syn : Int)]
theorem room_v {w : World} {J p area syn : Nat} {L : Value} (h : Bk w J (jv p area L syn)) (ha : area ≤ 256) : Calls Tryz.prog 58 #[pt0 J] w fun e w' => e = .returned (.int .i64 ((area * 256 : Nat) : Int)) ∧ w' = w := by
  have c1 : w.cell? ⟨J, 1, none⟩ = some (.int .i64 (area : Int)) := h.cell rfl
  clear h
  go_enter Tryz.func58, Tryz.ntmps58
  go_wp2
  go_ret
  exact ⟨Oret_int (by omega), rfl⟩
/-- What the steps read: the loop outside, its variables, the journal, the new log. -/
structure Sw (W : World) (l : Nat) (rec : Loop) (x1 x2 J L s m p area : Nat) (L0 : Value) (syn E : Nat) (rs : List (UInt8 × List UInt8)) (v : Value) : Prop where
  yl : W.heap[l]? = some (.loop rec)
  b1 : Bk W x1 [pt0 L]
  b2 : Bk W x2 [pt0 J]
  hj : Bk W J (jv p area L0 syn)
  hl : Lg W 0 L E rs v
  ap : ∀ k, k = s ∨ k = m → l ≠ k ∧ x1 ≠ k ∧ x2 ≠ k ∧ J ≠ k ∧ L ≠ k ∧ v.ownBlock ≠ some k
section
variable {W W' : World} {l x1 x2 J L s m p area : Nat} {L0 : Value} {syn E : Nat} {rec : Loop} {rs : List (UInt8 × List UInt8)} {v : Value}
theorem Sw.kpF {may : Nat → Prop} (h : Sw W l rec x1 x2 J L s m p area L0 syn E rs v) (hk : Kp may W W') (hm : ∀ k, k < W.heap.size → may k → k = s ∨ k = m) : Sw W' l rec x1 x2 J L s m p area L0 syn E rs v := by
  have hll : l < W.heap.size := (Array.getElem?_eq_some_iff.1 h.yl).1
  refine ⟨(hk.block l hll (fun e => (h.ap l (hm l hll e)).1 rfl)).trans h.yl, h.b1.kp hk (fun e => (h.ap x1 (hm _ h.b1.lt e)).2.1 rfl), h.b2.kp hk (fun e => (h.ap x2 (hm _ h.b2.lt e)).2.2.1 rfl), h.hj.kp hk (fun e => (h.ap J (hm _ h.hj.lt e)).2.2.2.1 rfl),
    h.hl.kp hk (fun e => (h.ap L (hm _ h.hl.lt e)).2.2.2.2.1 rfl) (fun k hv e => (h.ap k (hm _ (h.hl.vlt k hv) e)).2.2.2.2.2 hv), h.ap⟩
theorem Sw.old (h : Sw W l rec x1 x2 J L s m p area L0 syn E rs v) (hb : Below W.heap.size W W') : Sw W' l rec x1 x2 J L s m p area L0 syn E rs v := h.kpF (may := fun _ => False) (Kp.of_old hb) (fun _ _ e => e.elim)
theorem Sw.epoch (h : Sw W l rec x1 x2 J L s m p area L0 syn E rs v) : W.cell? ⟨L, 0, none⟩ = some (.int .u64 (E : Int)) := by
  obtain ⟨lr, hb⟩ := h.hl.bk
  exact hb.cell rfl
/-- All of it lies below a block. -/
def Sw.Top (l x1 x2 J L : Nat) (v : Value) (t : Nat) : Prop := l < t ∧ x1 < t ∧ x2 < t ∧ J < t ∧ L < t ∧ ∀ k, v.ownBlock = some k → k < t
theorem Sw.top (h : Sw W l rec x1 x2 J L s m p area L0 syn E rs v) : Sw.Top l x1 x2 J L v W.heap.size := ⟨(Array.getElem?_eq_some_iff.1 h.yl).1, h.b1.lt, h.b2.lt, h.hj.lt, h.hl.lt, h.hl.vlt⟩
theorem Sw.low {t : Nat} (h : Sw W l rec x1 x2 J L s m p area L0 syn E rs v) (ht : Sw.Top l x1 x2 J L v t) (hb : Below t W W') (hs : W.heap.size ≤ W'.heap.size) : Sw W' l rec x1 x2 J L s m p area L0 syn E rs v := by
  refine ⟨(hb.block l ht.1).trans h.yl, ?_, ?_, ?_, ?_, h.ap⟩
  · obtain ⟨y, e⟩ := h.b1; exact ⟨y, (hb.block _ ht.2.1).trans e⟩
  · obtain ⟨y, e⟩ := h.b2; exact ⟨y, (hb.block _ ht.2.2.1).trans e⟩
  · obtain ⟨y, e⟩ := h.hj; exact ⟨y, (hb.block _ ht.2.2.2.1).trans e⟩
  · exact h.hl.kp (may := fun k => t ≤ k) ⟨hb.os, hb.tape, hb.output, hs, fun k _ hk => hb.block k (by omega)⟩ (by have := ht.2.2.2.2.1; omega) (fun k hv e => by have := ht.2.2.2.2.2 k hv; omega)
theorem Sw.kpT {may : Nat → Prop} {t : Nat} (h : Sw W l rec x1 x2 J L s m p area L0 syn E rs v) (ht : Sw.Top l x1 x2 J L v t) (hk : Kp may W W') (hm : ∀ k, may k → (k = s ∨ k = m) ∨ t ≤ k) : Sw W' l rec x1 x2 J L s m p area L0 syn E rs v := by
  have hll : l < W.heap.size := (Array.getElem?_eq_some_iff.1 h.yl).1
  refine ⟨(hk.block l hll (fun e => ?_)).trans h.yl, h.b1.kp hk (fun e => ?_), h.b2.kp hk (fun e => ?_), h.hj.kp hk (fun e => ?_), h.hl.kp hk (fun e => ?_) (fun k hv e => ?_), h.ap⟩
  · rcases hm _ e with e | e
    · exact (h.ap _ e).1 rfl
    · have := ht.1; omega
  · rcases hm _ e with e | e
    · exact (h.ap _ e).2.1 rfl
    · have := ht.2.1; omega
  · rcases hm _ e with e | e
    · exact (h.ap _ e).2.2.1 rfl
    · have := ht.2.2.1; omega
  · rcases hm _ e with e | e
    · exact (h.ap _ e).2.2.2.1 rfl
    · have := ht.2.2.2.1; omega
  · rcases hm _ e with e | e
    · exact (h.ap _ e).2.2.2.2.1 rfl
    · have := ht.2.2.2.2.1; omega
  · rcases hm _ e with e | e
    · exact (h.ap _ e).2.2.2.2.2 hv
    · have := ht.2.2.2.2.2 k hv; omega
/-- The ways through a region within a fence meet behind it. -/
theorem region_meetF {F : Fence} {n : Nat} {P : Program} {Q : Exit → Act → World → Prop} {c : Code} {a : Act} {w : World} (S : Act → Act → World → Prop) (h1 : c.wpIn F n P (fun e a' w' => e = .normal ∧ S a a' w') a w) (h2 : ∀ a' w', S a a' w' → Q .normal a' w') : c.wpIn F n P Q a w :=
  wpIn_mono h1 (by rintro e a' w' ⟨rfl, h⟩; exact h2 a' w' h)
theorem round_wide {n n' l f : Nat} {P : Program} {tmps : Array Value} {assign body : Code} {w : World} {T : Ending → World → Prop} (h : RoundIn Fence.wide n P l f tmps assign body w T) : RoundIn Fence.wide n' P l f tmps assign body w T :=
  ⟨trivial, fun c cs _ => h.2 c cs (fun d hd => by cases hd)⟩
theorem noC_len (n : Nat) : (noC n).length = n := by simp [noC]
/-- The disk behind a beginning: its bytes. -/
def begB (B : List UInt8) (C : Ca) (E area : Nat) (rs : List (UInt8 × List UInt8)) : List UInt8 :=
  let C1 := wr C (2 + E % 2 * area) (pad (area * 256) (recsB (fstC E) rs)) area
  let B1 := settle C1 (idx 0 C1) B
  let C2 := (noC C.length).set (E % 2) (some (headB E area))
  settle C2 (idx 0 C2) B1
set_option maxHeartbeats 3200000 in
theorem steps1_in (nn : Nat) (hn : 4 ≤ nn) {B : List UInt8} {C : Ca} (hw : Sw W l rec x1 x2 J L s m p area L0 syn E rs v) (hd : Dk W p s m B C) (hE : E ≤ 4294967296) (ha1 : 1 ≤ area) (ha : area ≤ 256) (hs : 2 + 2 * area ≤ C.length)
    (hf : (recsB (fstC E) rs).length ≤ area * 256)
    (hY : ∀ X, X.heap[l]? = some (.loop rec) → YieldAt Fence.wide (nn - 1) Tryz.prog l #[.int .i64 0] X fun e X' => e = .returned (.bool true) ∧ X' = X) :
    CallsIn Fence.wide nn Tryz.prog 110 #[.func (.yield l) #[] #[], .pointer (some ⟨x1, 0, none⟩), .pointer (some ⟨x2, 0, none⟩)] W fun e W' => (∃ u, e = .returned u) ∧ Dk W' p s m (begB B C E area rs) (noC C.length) ∧ Kp (fun k => k = s ∨ k = m) W W' := by
  have HF := Lib.hid (fun X => firstSector_bl E (by omega) area ha X)
  have hfs : 2 + E % 2 * area + area ≤ C.length := by
    have h2 : E % 2 * area ≤ 1 * area := Nat.mul_le_mul_right _ (by omega)
    omega
  generalize hff : 2 + E % 2 * area = f at *
  have HFF := Lib.hid hff
  clear hff
  have hb1 := bl_alloc (bl0 W) (.cells #[.func (.yield l) #[] #[]] 150)
  have HS1 := Lib.hid (hw.old hb1)
  have HD1 := Lib.hid (hd.old hb1)
  have HX1 := Lib.hid (Bk.new W [.func (.yield l) #[] #[]] 150)
  have HB1 := Lib.hid hb1
  have HY := Lib.hid hY
  have HDL := Lib.hid (show p < W.heap.size ∧ s < W.heap.size ∧ m < W.heap.size from ⟨hd.plt, hd.slt, hd.mlt⟩)
  clear hw hd hb1 hY
  refine callsIn_of_wp_marks Tryz.func110 rfl trivial ?_ rfl
  simp only [Tryz.ntmps110, List.size_toArray, List.length_cons, List.length_nil, Nat.reduceAdd, Nat.reduceSub, Array.replicate_succ, Array.replicate_zero, List.push_toArray, List.append_toArray, List.nil_append, List.cons_append]
  gi_wp2
  generalize hW1 : W.alloc (.cells #[.func (.yield l) #[] #[]] 150) = W1 at *
  clear hW1
  refine wpIn_wide.2 ?_
  refine region_meetQ (fun a0 a' w' => ∃ q, a' = puts a0 [(6, pt0 L), (7, pt0 L), (8, pt0 L), (9, .int .u64 (E : Int)), (10, pt0 J), (11, pt0 J), (12, .pointer (some ⟨J, 1, none⟩)), (13, .int .i64 (area : Int)), (14, .int .i64 (f : Int)), (4, .pointer (some ⟨q, 0, none⟩))] ∧ Hid (W1.heap.size ≤ q) ∧ Hid (Bk w' q [.int .i64 (f : Int)]) ∧ Hid (Below W1.heap.size W1 w')) ?_ ?_
  · have hR := Sb.stays W1.heap.size
    refine reg_start (Sb W1.heap.size) follows_mixed ?_
    have HS := Lib.hid (HS1.out.old (Below.refl W1.heap.size W1).drew)
    have HT := Lib.hid HS1.out.top
    have HB := Lib.hid (Below.refl W1.heap.size W1).drew
    generalize W1.drew = u0 at HS HB ⊢
    refine reg_take (v := pt0 L) hR 0 rfl (by kernel_rfl) (by kernel_rfl) (by kernel_rfl) (fun _ _ _ h => by cases h.1) (by rfl) ?_ ?_
    · intro W hW; exact exec_load_cell 81 _ rfl Tryz.isAgg81 rfl (((HS.out.low HT.out hW hW.size).b1).cell rfl)
    try simp only [Act.put, List.getElem_toArray, List.getElem_cons_succ, List.getElem_cons_zero, List.setIfInBounds_toArray, List.set_cons_zero, List.set_cons_succ]
    refine reg_take (v := pt0 L) hR 1 rfl (by kernel_rfl) (by kernel_rfl) (by kernel_rfl) (fun _ _ _ h => by cases h.1) (by rfl) ?_ ?_
    · intro W hW; go_simp; try with_reducible rfl
    try simp only [Act.put, List.getElem_toArray, List.getElem_cons_succ, List.getElem_cons_zero, List.setIfInBounds_toArray, List.set_cons_zero, List.set_cons_succ]
    refine reg_take (v := pt0 L) hR 2 rfl (by kernel_rfl) (by kernel_rfl) (by kernel_rfl) (fun _ _ _ h => by cases h.1) (by rfl) ?_ ?_
    · intro W hW; go_simp; try with_reducible rfl
    try simp only [Act.put, List.getElem_toArray, List.getElem_cons_succ, List.getElem_cons_zero, List.setIfInBounds_toArray, List.set_cons_zero, List.set_cons_succ]
    refine reg_take (v := .int .u64 (E : Int)) hR 3 rfl (by kernel_rfl) (by kernel_rfl) (by kernel_rfl) (fun _ _ _ h => by cases h.1) (by rfl) ?_ ?_
    · intro W hW; exact exec_load_cell 40 _ rfl Tryz.isAgg40 rfl (HS.out.low HT.out hW hW.size).epoch
    try simp only [Act.put, List.getElem_toArray, List.getElem_cons_succ, List.getElem_cons_zero, List.setIfInBounds_toArray, List.set_cons_zero, List.set_cons_succ]
    refine reg_take (v := pt0 J) hR 4 rfl (by kernel_rfl) (by kernel_rfl) (by kernel_rfl) (fun _ _ _ h => by cases h.1) (by rfl) ?_ ?_
    · intro W hW; exact exec_load_cell 26 _ rfl Tryz.isAgg26 rfl (((HS.out.low HT.out hW hW.size).b2).cell rfl)
    try simp only [Act.put, List.getElem_toArray, List.getElem_cons_succ, List.getElem_cons_zero, List.setIfInBounds_toArray, List.set_cons_zero, List.set_cons_succ]
    refine reg_take (v := pt0 J) hR 5 rfl (by kernel_rfl) (by kernel_rfl) (by kernel_rfl) (fun _ _ _ h => by cases h.1) (by rfl) ?_ ?_
    · intro W hW; go_simp; try with_reducible rfl
    try simp only [Act.put, List.getElem_toArray, List.getElem_cons_succ, List.getElem_cons_zero, List.setIfInBounds_toArray, List.set_cons_zero, List.set_cons_succ]
    refine reg_take (v := .pointer (some ⟨J, 1, none⟩)) hR 6 rfl (by kernel_rfl) (by kernel_rfl) (by kernel_rfl) (fun _ _ _ h => by cases h.1) (by rfl) ?_ ?_
    · intro W hW; go_simp; try with_reducible rfl
    try simp only [Act.put, List.getElem_toArray, List.getElem_cons_succ, List.getElem_cons_zero, List.setIfInBounds_toArray, List.set_cons_zero, List.set_cons_succ]
    refine reg_take (v := .int .i64 (area : Int)) hR 7 rfl (by kernel_rfl) (by kernel_rfl) (by kernel_rfl) (fun _ _ _ h => by cases h.1) (by rfl) ?_ ?_
    · intro W hW; exact exec_load_cell 3 _ rfl Tryz.isAgg3 rfl (((HS.out.low HT.out hW hW.size).hj).cell rfl)
    try simp only [Act.put, List.getElem_toArray, List.getElem_cons_succ, List.getElem_cons_zero, List.setIfInBounds_toArray, List.set_cons_zero, List.set_cons_succ]
    refine reg_fork (rs := [8, 9]) hR (by kernel_rfl) (by simp) ?_
    intro i hi; simp only [List.mem_cons, List.not_mem_nil, or_false] at hi
    rcases hi with rfl | rfl
    · refine ⟨_, rfl, fun K hK => ?_⟩
      try simp only [Act.put, List.getElem_toArray, List.getElem_cons_succ, List.getElem_cons_zero, List.setIfInBounds_toArray, List.set_cons_zero, List.set_cons_succ]
      rw [if_pos (by rfl)]
      go_simp
      refine (HF.out u0).mono ?_; rintro e u1 ⟨rfl, hb⟩
      refine hK.out _ _ (show Below _ _ _ from hb.mono HB.out.size) ?_
      clear hK K
      have HB := Lib.hid (HB.out.trans (hb.mono HB.out.size))
      clear hb
      try simp only [Act.put, List.getElem_toArray, List.getElem_cons_succ, List.getElem_cons_zero, List.setIfInBounds_toArray, List.set_cons_zero, List.set_cons_succ]
      refine reg_step hR 9 (by kernel_rfl) rfl fun K hK => ?_
      try simp only [Act.put, List.getElem_toArray, List.getElem_cons_succ, List.getElem_cons_zero, List.setIfInBounds_toArray, List.set_cons_zero, List.set_cons_succ]
      rw [if_pos (by rfl)]
      refine wp_alloc1 3 rfl (0) Tryz.zeroValue3 ?_
      refine hK.out _ _ ((Below.refl _ _).alloc HB.out.size _) ?_
      clear hK K
      have HGq := Lib.hid (Bk.new u1 [.int .i64 0] 3)
      have HTq := Lib.hid (show W1.heap.size ≤ u1.heap.size from HB.out.size)
      have HB := Lib.hid (HB.out.alloc HB.out.size (.cells [.int .i64 0].toArray 3))
      have HLq := Lib.hid (show u1.heap.size < (u1.alloc (.cells [.int .i64 0].toArray 3)).heap.size by simp)
      generalize hgw : u1.alloc (.cells [.int .i64 0].toArray 3) = u2 at HB HGq HLq ⊢
      clear hgw
      generalize hgw : u1.heap.size = q at HGq HTq HLq ⊢
      clear hgw
      try simp only [Act.put, List.getElem_toArray, List.getElem_cons_succ, List.getElem_cons_zero, List.setIfInBounds_toArray, List.set_cons_zero, List.set_cons_succ]
      refine reg_step hR 10 (by kernel_rfl) rfl fun K hK => ?_
      try simp only [Act.put, List.getElem_toArray, List.getElem_cons_succ, List.getElem_cons_zero, List.setIfInBounds_toArray, List.set_cons_zero, List.set_cons_succ]
      rw [if_pos (by rfl)]
      refine wp_store1 3 _ _ rfl q rfl ((f : Int)) (.int .i64 0) rfl HGq.out Tryz.sizeOf3 ?_
      refine hK.out _ _ (below_setRow (Below.refl _ _) HTq.out _) ?_
      clear hK K
      have HGq := Lib.hid (HGq.out.setRow ([.int .i64 (f : Int)] : List Value))
      have HB := Lib.hid (below_setRow HB.out HTq.out (([.int .i64 (f : Int)] : List Value)).toArray)
      generalize hgw : u2.setRow q (([.int .i64 (f : Int)] : List Value)).toArray = u3 at HB HGq ⊢
      clear hgw
      try simp only [Act.put, List.getElem_toArray, List.getElem_cons_succ, List.getElem_cons_zero, List.setIfInBounds_toArray, List.set_cons_zero, List.set_cons_succ]
      refine reg_done (by kernel_rfl) ?_ _
      refine ⟨rfl, q, ?_, HTq, HGq, HB⟩
      simp only [puts, List.foldl_cons, List.foldl_nil, Act.put, List.getElem_toArray, List.getElem_cons_succ, List.getElem_cons_zero, List.setIfInBounds_toArray, List.set_cons_zero, List.set_cons_succ]
    · refine ⟨_, rfl, fun K hK => ?_⟩
      try simp only [Act.put, List.getElem_toArray, List.getElem_cons_succ, List.getElem_cons_zero, List.setIfInBounds_toArray, List.set_cons_zero, List.set_cons_succ]
      rw [if_pos (by rfl)]
      refine wp_alloc1 3 rfl (0) Tryz.zeroValue3 ?_
      refine hK.out _ _ ((Below.refl _ _).alloc HB.out.size _) ?_
      clear hK K
      have HGq := Lib.hid (Bk.new u0 [.int .i64 0] 3)
      have HTq := Lib.hid (show W1.heap.size ≤ u0.heap.size from HB.out.size)
      have HB := Lib.hid (HB.out.alloc HB.out.size (.cells [.int .i64 0].toArray 3))
      have HLq := Lib.hid (show u0.heap.size < (u0.alloc (.cells [.int .i64 0].toArray 3)).heap.size by simp)
      generalize hgw : u0.alloc (.cells [.int .i64 0].toArray 3) = u1 at HB HGq HLq ⊢
      clear hgw
      generalize hgw : u0.heap.size = q at HGq HTq HLq ⊢
      clear hgw
      try simp only [Act.put, List.getElem_toArray, List.getElem_cons_succ, List.getElem_cons_zero, List.setIfInBounds_toArray, List.set_cons_zero, List.set_cons_succ]
      refine reg_step hR 8 (by kernel_rfl) rfl fun K hK => ?_
      try simp only [Act.put, List.getElem_toArray, List.getElem_cons_succ, List.getElem_cons_zero, List.setIfInBounds_toArray, List.set_cons_zero, List.set_cons_succ]
      rw [if_pos (by rfl)]
      go_simp
      refine (HF.out u1).mono ?_; rintro e u2 ⟨rfl, hb⟩
      refine hK.out _ _ (show Below _ _ _ from hb.mono HB.out.size) ?_
      clear hK K
      have HGq := Lib.hid (HGq.out.keep hb)
      have HB := Lib.hid (HB.out.trans (hb.mono HB.out.size))
      clear hb
      have HLq := Lib.hid (show q < u2.heap.size from HGq.out.lt)
      try simp only [Act.put, List.getElem_toArray, List.getElem_cons_succ, List.getElem_cons_zero, List.setIfInBounds_toArray, List.set_cons_zero, List.set_cons_succ]
      refine reg_step hR 10 (by kernel_rfl) rfl fun K hK => ?_
      try simp only [Act.put, List.getElem_toArray, List.getElem_cons_succ, List.getElem_cons_zero, List.setIfInBounds_toArray, List.set_cons_zero, List.set_cons_succ]
      rw [if_pos (by rfl)]
      refine wp_store1 3 _ _ rfl q rfl ((f : Int)) (.int .i64 0) rfl HGq.out Tryz.sizeOf3 ?_
      refine hK.out _ _ (below_setRow (Below.refl _ _) HTq.out _) ?_
      clear hK K
      have HGq := Lib.hid (HGq.out.setRow ([.int .i64 (f : Int)] : List Value))
      have HB := Lib.hid (below_setRow HB.out HTq.out (([.int .i64 (f : Int)] : List Value)).toArray)
      generalize hgw : u2.setRow q (([.int .i64 (f : Int)] : List Value)).toArray = u3 at HB HGq ⊢
      clear hgw
      try simp only [Act.put, List.getElem_toArray, List.getElem_cons_succ, List.getElem_cons_zero, List.setIfInBounds_toArray, List.set_cons_zero, List.set_cons_succ]
      refine reg_done (by kernel_rfl) ?_ _
      refine ⟨rfl, q, ?_, HTq, HGq, HB⟩
      simp only [puts, List.foldl_cons, List.foldl_nil, Act.put, List.getElem_toArray, List.getElem_cons_succ, List.getElem_cons_zero, List.setIfInBounds_toArray, List.set_cons_zero, List.set_cons_succ]
  · rintro a' W2 ⟨q, rfl, HTq, HGq, HBw⟩
    simp only [puts, List.foldl_cons, List.foldl_nil, Act.put, List.getElem_toArray, List.getElem_cons_succ, List.getElem_cons_zero, List.setIfInBounds_toArray, List.set_cons_zero, List.set_cons_succ]
    have HS2 := Lib.hid (HS1.out.old HBw.out)
    have HD2 := Lib.hid (HD1.out.old HBw.out)
    have HX2 := Lib.hid (HX1.out.keep HBw.out)
    have HB2 := Lib.hid (HB1.out.trans (HBw.out.mono HB1.out.size))
    have HQ1 : Hid (W.heap.size < q) := Lib.hid (by have h1 := HX1.out.lt; have := HTq.out; omega)
    have HTL := Lib.hid (fun X (h : Lg X 0 L E rs v) => tail_any h 0 (Nat.zero_le _))
    have HRM := Lib.hid (fun X (h : Bk X J (jv p area L0 syn)) => room_v h ha)
    have hN65 : area * 256 ≤ 65536 := by omega
    simp only [List.drop_zero] at HTL
    generalize hXX : recsB (fstC E) rs = X at *
    generalize hxl : X.length = xl at *
    generalize hNN : area * 256 = N at *
    have HXX := Lib.hid hXX
    have HXL := Lib.hid hxl
    have HNN := Lib.hid hNN
    have hxN : xl ≤ N := hf
    have HTP := Lib.hid HS1.out.top
    have HTQ := Lib.hid HTq.out
    clear hXX hxl hNN hf HS1 HD1 HX1 HB1 HBw HF HTq
    gi_wp2
    refine wpIn_wide.2 ?_
    refine region_meetQ (fun a0 a' w' => ∃ A2 c2 R g1, a' = puts a0 [(15, pt0 L), (16, .slice A2 xl c2), (17, pt0 J), (18, .int .i64 (N : Int)), (19, .slice (some ⟨R, 0, none⟩) N N), (20, .func (.func 124) #[] #[.pointer (some ⟨g1, 0, none⟩), .pointer (some ⟨g1 + 1, 0, none⟩)])] ∧ Hid (W2.heap.size ≤ R) ∧ Hid (W2.heap.size ≤ g1) ∧ Hid (Row w' R (pad N X)) ∧ Hid (Bk w' g1 [.slice (some ⟨R, 0, none⟩) N N]) ∧ Hid (Bk w' (g1 + 1) [.int .i64 256]) ∧ Hid (Below W2.heap.size W2 w')) ?_ ?_
    · have hR := Sb.stays W2.heap.size
      refine reg_start (Sb W2.heap.size) follows_mixed ?_
      have HS := Lib.hid (HS2.out.old (Below.refl W2.heap.size W2).drew)
      have HT := Lib.hid HS2.out.top
      have HB := Lib.hid (Below.refl W2.heap.size W2).drew
      generalize W2.drew = u0 at HS HB ⊢
      refine reg_take (v := pt0 L) hR 0 rfl (by kernel_rfl) (by kernel_rfl) (by kernel_rfl) (fun _ _ _ h => by cases h.1) (by rfl) ?_ ?_
      · intro W hW; exact exec_load_cell 81 _ rfl Tryz.isAgg81 rfl (((HS.out.low HT.out hW hW.size).b1).cell rfl)
      try simp only [Act.put, List.getElem_toArray, List.getElem_cons_succ, List.getElem_cons_zero, List.setIfInBounds_toArray, List.set_cons_zero, List.set_cons_succ]
      refine reg_take (v := pt0 J) hR 2 rfl (by kernel_rfl) (by kernel_rfl) (by kernel_rfl) (fun _ _ _ h => by cases h.1) (by rfl) ?_ ?_
      · intro W hW; exact exec_load_cell 26 _ rfl Tryz.isAgg26 rfl (((HS.out.low HT.out hW hW.size).b2).cell rfl)
      try simp only [Act.put, List.getElem_toArray, List.getElem_cons_succ, List.getElem_cons_zero, List.setIfInBounds_toArray, List.set_cons_zero, List.set_cons_succ]
      refine reg_step hR 1 (by kernel_rfl) rfl fun K hK => ?_
      try simp only [Act.put, List.getElem_toArray, List.getElem_cons_succ, List.getElem_cons_zero, List.setIfInBounds_toArray, List.set_cons_zero, List.set_cons_succ]
      rw [if_pos (by rfl)]
      go_simp
      refine (HTL.out _ HS.out.hl).mono ?_; rintro e u1 ⟨A2, c2, rfl, hr2, -, kk, hkk⟩
      rw [HXL.out] at hr2 ⊢
      have hb : Below u0.heap.size u0 u1 := by rw [hkk]; exact bl_drewN _ _
      clear hkk
      refine hK.out _ _ (show Below _ _ _ from hb.mono HB.out.size) ?_
      clear hK K
      have HR2 := Lib.hid hr2
      replace HS := Lib.hid (HS.out.old hb)
      replace HB := Lib.hid (HB.out.trans (hb.mono HB.out.size))
      clear hb hr2
      try simp only [Act.put, List.getElem_toArray, List.getElem_cons_succ, List.getElem_cons_zero, List.setIfInBounds_toArray, List.set_cons_zero, List.set_cons_succ]
      refine reg_step hR 3 (by kernel_rfl) rfl fun K hK => ?_
      try simp only [Act.put, List.getElem_toArray, List.getElem_cons_succ, List.getElem_cons_zero, List.setIfInBounds_toArray, List.set_cons_zero, List.set_cons_succ]
      rw [if_pos (by rfl)]
      go_simp
      refine (HRM.out _ HS.out.hj).mono ?_; rintro e u9 ⟨rfl, hu⟩; subst u9
      refine hK.out _ _ (hR.refl _) ?_
      clear hK K
      try simp only [Act.put, List.getElem_toArray, List.getElem_cons_succ, List.getElem_cons_zero, List.setIfInBounds_toArray, List.set_cons_zero, List.set_cons_succ]
      refine reg_step hR 4 (by kernel_rfl) rfl fun K hK => ?_
      try simp only [Act.put, List.getElem_toArray, List.getElem_cons_succ, List.getElem_cons_zero, List.setIfInBounds_toArray, List.set_cons_zero, List.set_cons_succ]
      rw [if_pos (by rfl)]
      go_simp
      refine (padded_any N u1 HR2.out hxN hN65).mono ?_; rintro e u2 ⟨R, rfl, hRR, hrow, hb⟩
      refine hK.out _ _ (show Below _ _ _ from hb.mono HB.out.size) ?_
      clear hK K
      have HRW := Lib.hid hrow
      have HRG : Hid (W2.heap.size ≤ R) := Lib.hid (Nat.le_trans HB.out.size hRR)
      replace HB := Lib.hid (HB.out.trans (hb.mono HB.out.size))
      clear hb hrow hRR HR2
      try simp only [Act.put, List.getElem_toArray, List.getElem_cons_succ, List.getElem_cons_zero, List.setIfInBounds_toArray, List.set_cons_zero, List.set_cons_succ]
      refine reg_step hR 5 (by kernel_rfl) rfl fun K hK => ?_
      try simp only [Act.put, List.getElem_toArray, List.getElem_cons_succ, List.getElem_cons_zero, List.setIfInBounds_toArray, List.set_cons_zero, List.set_cons_succ]
      rw [if_pos (by rfl)]
      go_simp
      refine (chunk_call (some ⟨R, 0, none⟩) N N u2).mono ?_; rintro e u3 ⟨rfl, hu3⟩
      have hb : Below u2.heap.size u2 u3 := by rw [hu3]; exact bl_alloc (bl_alloc (bl0 u2) _) _
      refine hK.out _ _ (show Below _ _ _ from hb.mono HB.out.size) ?_
      clear hK K
      have HC1 : Hid (Bk u3 u2.heap.size [.slice (some ⟨R, 0, none⟩) N N]) := Lib.hid (by rw [hu3]; exact (Bk.new u2 [.slice (some ⟨R, 0, none⟩) N N] 31).old (.cells #[.int .i64 256] 3))
      have HC2 : Hid (Bk u3 (u2.heap.size + 1) [.int .i64 256]) := Lib.hid (by rw [hu3]; have := Bk.new (u2.alloc (.cells #[.slice (some ⟨R, 0, none⟩) N N] 31)) [.int .i64 256] 3; simpa using this)
      have HRG1 : Hid (W2.heap.size ≤ u2.heap.size) := Lib.hid HB.out.size
      replace HRW : Hid (Row u3 R (pad N X)) := Lib.hid (HRW.out.of (hb.block _ HRW.out.lt))
      replace HB := Lib.hid (HB.out.trans (hb.mono HB.out.size))
      clear hb hu3
      generalize u2.heap.size = g1 at HC1 HC2 HRG1 ⊢
      try simp only [Act.put, List.getElem_toArray, List.getElem_cons_succ, List.getElem_cons_zero, List.setIfInBounds_toArray, List.set_cons_zero, List.set_cons_succ]
      refine reg_done (by kernel_rfl) ?_ _
      refine ⟨rfl, A2, c2, R, g1, ?_, HRG, HRG1, HRW, HC1, HC2, HB⟩
      simp only [puts, List.foldl_cons, List.foldl_nil, Act.put, List.getElem_toArray, List.getElem_cons_succ, List.getElem_cons_zero, List.setIfInBounds_toArray, List.set_cons_zero, List.set_cons_succ]
    · rintro a' W3 ⟨A2, c2, R, g1, rfl, HRG, HRG1, HRW, HC1, HC2, HBw⟩
      simp only [puts, List.foldl_cons, List.foldl_nil, Act.put, List.getElem_toArray, List.getElem_cons_succ, List.getElem_cons_zero, List.setIfInBounds_toArray, List.set_cons_zero, List.set_cons_succ]
      have HS3 := Lib.hid (HS2.out.old HBw.out)
      have HD3 := Lib.hid (HD2.out.old HBw.out)
      have HX3 := Lib.hid (HX2.out.keep HBw.out)
      have HQ3 := Lib.hid (HGq.out.keep HBw.out)
      have HB3 := Lib.hid (HB2.out.trans (HBw.out.mono HB2.out.size))
      have HQL := Lib.hid HGq.out.lt
      obtain ⟨x3, hx3⟩ : ∃ x3, x3 = W.heap.size := ⟨_, rfl⟩
      have HX3L := Lib.hid (show x3 < W2.heap.size by rw [hx3]; exact HX2.out.lt)
      have HX3E := Lib.hid hx3
      rw [← hx3] at HX3
      rw [← hx3]
      clear hx3
      obtain ⟨ad, had⟩ : ∃ ad : Addr, ad = ⟨R, 0, none⟩ := ⟨_, rfl⟩
      have HAD := Lib.hid had
      rw [← had] at HC1
      rw [← had]
      clear had
      clear HS2 HD2 HX2 HGq HBw HTL HRM
      gi_wp2
      refine range_chunk 5 (by omega) (b1 := g1) (b2 := g1 + 1) (ad := ad) (q := area) (c := N) (by omega) (by rw [HNN.out]; exact Nat.le_refl _) (by omega) rfl (by rw [HNN.out]; exact HC1.out) HC2.out
        (fun k Y => Bk Y q [.int .i64 ((f + k : Nat) : Int)] ∧ Dk Y p s m B (wr C f (pad N X) k) ∧ Kp (fun x => x = m ∨ x = q) W3 Y) ?_ ?_ ?assign ?body ?done
      · intro k Y Y' row ⟨h1, h2, h3⟩ hg hr
        have hn5 : ∀ x, x < W3.heap.size → row ≠ some x := fun x hx e => by have := (hr x e).1; omega
        refine ⟨h1.grow hg (hn5 _ HQ3.out.lt), h2.grow hg (fun r e => ?_), ⟨hg.os.trans h3.os, hg.tape.trans h3.tape, hg.output.trans h3.output, Nat.le_trans h3.size hg.size, fun x hx hm => (hg.block x (Nat.lt_of_lt_of_le hx h3.size) (fun e => hn5 x hx e.symm)).trans (h3.block x hx hm)⟩⟩
        have := (hr r e).1
        have := HDL.out
        have := HB3.out.size
        omega
      · exact ⟨HQ3.out, HD3.out, (Kp.stays _).refl _⟩
      case assign =>
        intro l2 k Y K hK
        gi_wp2
        exact hK
      case body =>
        rintro l2 k W4 ⟨hk1, hk2, hk3⟩ hlt
        have HQ4 := Lib.hid hk1
        have HD4 := Lib.hid hk2
        have HK4 := Lib.hid hk3
        have hml : m < x3 := by have := HDL.out; have := HX3E.out; omega
        have hxq : x3 < q := by have := HQ1.out; have := HX3E.out; omega
        have hqR : q < R := by have := HQL.out; have := HRG.out; omega
        have nX := Lib.hid (show ¬ x3 = m by omega)
        have nQ := Lib.hid (show ¬ q = m by omega)
        have HS4 := Lib.hid (HS3.out.kpT HTP.out hk3 (fun x e => by rcases e with e | e; exact .inl (.inr e); (subst e; exact .inr HTQ.out)))
        have HX4 := Lib.hid (HX3.out.kp hk3 (by omega))
        have hrow4 : Row W4 R (pad N X) := HRW.out.of (hk3.block _ HRW.out.lt (by omega))
        have hpl : (pad N X).length = N := pad_length (by rw [HXL.out]; omega)
        have hrd := hrow4.rd
        rw [hpl, ← HAD.out] at hrd
        have hrd2 := hrd.sector (k := k) (by rw [← HNN.out]; exact Nat.mul_le_mul_right _ (by omega))
        have hlen : (wr C f (pad N X) k).length = C.length := wr_length C f (pad N X) k
        obtain ⟨g0, hg0⟩ : ∃ g0, g0 = f + k := ⟨_, rfl⟩
        have HG0 := Lib.hid hg0
        rw [← hg0] at HQ4
        have hg16 : g0 ≤ 65536 := by have := HD3.out.h1; omega
        have HWR := Lib.hid (write_ok hk2.drew g0 (by omega) (hrd2.kpNe (Kp.of_old (may := fun _ => False) (Below.refl W4.heap.size W4).drew) (Nat.le_refl _) (fun _ _ h => h)))
        clear hg0
        clear hk1 hk2 hk3 hrow4 hpl hrd hrd2 hlen
        gi_wp2
        refine region_meetF (fun a0 a' w' => a' = puts a0 [(22, .func (.yield l) #[] #[]), (23, pt0 J), (24, pt0 J), (25, .pointer (some ⟨J, 0, none⟩)), (26, ptr p), (27, .int .i64 (g0 : Int)), (28, .slice (some (ad.add (k * 256))) 256 256), (29, .int .i64 0), (30, .bool true), (31, .bool false)] ∧ Hid (Dk w' p s m B ((wr C f (pad N X) k).set g0 (some (sect (pad N X) k)))) ∧ Hid (Kp (fun x => x = m) W4.drew w')) ?_ ?_
        · have hR := Kp.stays (fun x => x = m)
          refine fh_start (Kp (fun x => x = m)) follows_mixed ?_
          have HS := Lib.hid (HS4.out.old (Below.refl W4.heap.size W4).drew)
          have HX := Lib.hid HX4.out.drew
          have HQ := Lib.hid HQ4.out.drew
          generalize W4.drew = u0 at HS HX HQ HWR ⊢
          refine fh_take (v := .func (.yield l) #[] #[]) hR 0 rfl (by kernel_rfl) (by kernel_rfl) (by kernel_rfl) (by kernel_rfl) (fun _ _ _ h => by cases h.1) (by rfl) (fun _ => rfl) ?_ ?_
          · intro W hW; exact exec_load_cell 150 _ rfl Tryz.isAgg150 rfl ((HX.out.kp hW nX.out).cell rfl)
          try simp only [Act.put, List.getElem_toArray, List.getElem_cons_succ, List.getElem_cons_zero, List.setIfInBounds_toArray, List.set_cons_zero, List.set_cons_succ]
          refine fh_take (v := pt0 J) hR 1 rfl (by kernel_rfl) (by kernel_rfl) (by kernel_rfl) (by kernel_rfl) (fun _ _ _ h => by cases h.1) (by rfl) (fun _ => rfl) ?_ ?_
          · intro W hW; exact exec_load_cell 26 _ rfl Tryz.isAgg26 rfl (((HS.out.kpF hW (fun x _ e => .inr e)).b2).cell rfl)
          try simp only [Act.put, List.getElem_toArray, List.getElem_cons_succ, List.getElem_cons_zero, List.setIfInBounds_toArray, List.set_cons_zero, List.set_cons_succ]
          refine fh_take (v := pt0 J) hR 2 rfl (by kernel_rfl) (by kernel_rfl) (by kernel_rfl) (by kernel_rfl) (fun _ _ _ h => by cases h.1) (by rfl) (fun _ => rfl) ?_ ?_
          · intro W hW; go_simp; try with_reducible rfl
          try simp only [Act.put, List.getElem_toArray, List.getElem_cons_succ, List.getElem_cons_zero, List.setIfInBounds_toArray, List.set_cons_zero, List.set_cons_succ]
          refine fh_take (v := .pointer (some ⟨J, 0, none⟩)) hR 3 rfl (by kernel_rfl) (by kernel_rfl) (by kernel_rfl) (by kernel_rfl) (fun _ _ _ h => by cases h.1) (by rfl) (fun _ => rfl) ?_ ?_
          · intro W hW; go_simp; try with_reducible rfl
          try simp only [Act.put, List.getElem_toArray, List.getElem_cons_succ, List.getElem_cons_zero, List.setIfInBounds_toArray, List.set_cons_zero, List.set_cons_succ]
          refine fh_take (v := ptr p) hR 4 rfl (by kernel_rfl) (by kernel_rfl) (by kernel_rfl) (by kernel_rfl) (fun _ _ _ h => by cases h.1) (by rfl) (fun _ => rfl) ?_ ?_
          · intro W hW; exact exec_load_cell 22 _ rfl Tryz.isAgg22 rfl (((HS.out.kpF hW (fun x _ e => .inr e)).hj).cell rfl)
          try simp only [Act.put, List.getElem_toArray, List.getElem_cons_succ, List.getElem_cons_zero, List.setIfInBounds_toArray, List.set_cons_zero, List.set_cons_succ]
          refine fh_take (v := .int .i64 (g0 : Int)) hR 5 rfl (by kernel_rfl) (by kernel_rfl) (by kernel_rfl) (by kernel_rfl) (fun _ _ _ h => by cases h.1) (by rfl) (fun _ => rfl) ?_ ?_
          · intro W hW; exact exec_load_cell 3 _ rfl Tryz.isAgg3 rfl ((HQ.out.kp hW nQ.out).cell rfl)
          try simp only [Act.put, List.getElem_toArray, List.getElem_cons_succ, List.getElem_cons_zero, List.setIfInBounds_toArray, List.set_cons_zero, List.set_cons_succ]
          refine fh_take (v := .slice (some (ad.add (k * 256))) 256 256) hR 6 rfl (by kernel_rfl) (by kernel_rfl) (by kernel_rfl) (by kernel_rfl) (fun _ _ _ h => by cases h.1) (by rfl) (fun _ => rfl) ?_ ?_
          · intro W hW; go_simp; try with_reducible rfl
          try simp only [Act.put, List.getElem_toArray, List.getElem_cons_succ, List.getElem_cons_zero, List.setIfInBounds_toArray, List.set_cons_zero, List.set_cons_succ]
          refine fh_step hR 7 (by kernel_rfl) rfl fun K hK => ?_
          try simp only [Act.put, List.getElem_toArray, List.getElem_cons_succ, List.getElem_cons_zero, List.setIfInBounds_toArray, List.set_cons_zero, List.set_cons_succ]
          rw [if_pos (by rfl)]
          go_simp
          refine ⟨trivial, fun h => (by omega), ?_⟩
          refine (CallsIn.inRound _ (callsIn_wide.2 HWR.out)).mono ?_; rintro e u1 ⟨rfl, hd1, hk1⟩
          refine hK.out _ _ hk1 ?_
          clear hK K
          have HD1 := Lib.hid hd1
          have HK1 := Lib.hid hk1
          have HS1 := Lib.hid (HS.out.kpF hk1 (fun x _ e => .inr e))
          clear hd1 hk1
          try simp only [Act.put, List.getElem_toArray, List.getElem_cons_succ, List.getElem_cons_zero, List.setIfInBounds_toArray, List.set_cons_zero, List.set_cons_succ]
          refine fh_step hR 8 (by kernel_rfl) rfl fun K hK => ?_
          try simp only [Act.put, List.getElem_toArray, List.getElem_cons_succ, List.getElem_cons_zero, List.setIfInBounds_toArray, List.set_cons_zero, List.set_cons_succ]
          rw [if_pos (by rfl)]
          obtain ⟨fn, tmps, assign, body, hy, hRd⟩ := HY.out u1 HS1.out.yl
          have HRd := Lib.hid hRd
          clear hRd
          go_simp
          refine ⟨fun h => (by omega), ?_⟩
          refine (round_any _ HRd.out).mono ?_; rintro e u9 ⟨rfl, hu⟩; subst u9
          refine hK.out _ _ (hR.refl _) ?_
          clear hK K hy
          try simp only [Act.put, List.getElem_toArray, List.getElem_cons_succ, List.getElem_cons_zero, List.setIfInBounds_toArray, List.set_cons_zero, List.set_cons_succ]
          refine fh_take (v := .bool false) hR 9 rfl (by kernel_rfl) (by kernel_rfl) (by kernel_rfl) (by kernel_rfl) (fun _ _ _ h => by cases h.1) (by rfl) (fun _ => rfl) ?_ ?_
          · intro W hW; go_simp; try with_reducible rfl
          try simp only [Act.put, List.getElem_toArray, List.getElem_cons_succ, List.getElem_cons_zero, List.setIfInBounds_toArray, List.set_cons_zero, List.set_cons_succ]
          refine fh_done (by kernel_rfl) ?_ _
          refine ⟨rfl, ?_, HD1, HK1⟩
          simp only [puts, List.foldl_cons, List.foldl_nil, Act.put, List.getElem_toArray, List.getElem_cons_succ, List.getElem_cons_zero, List.setIfInBounds_toArray, List.set_cons_zero, List.set_cons_succ]
        · rintro a' W5 ⟨rfl, HD5, HK5⟩
          simp only [puts, List.foldl_cons, List.foldl_nil, Act.put, List.getElem_toArray, List.getElem_cons_succ, List.getElem_cons_zero, List.setIfInBounds_toArray, List.set_cons_zero, List.set_cons_succ]
          have HQ5 := Lib.hid (HQ4.out.drew.kp HK5.out nQ.out)
          have cq5 : W5.cell? ⟨q, 0, none⟩ = some (.int .i64 (g0 : Int)) := HQ5.out.cell rfl
          have fq5 : W5.frozen? ⟨q, 0, none⟩ = false := HQ5.out.frozen 0
          gi_wp2
          have HK9 := Lib.hid ((Kp.stays (fun x => x = m ∨ x = q)).trans (HK5.out.mono (fun x e => .inl e)) (show Kp (fun x => x = m ∨ x = q) W5 _ from (Kp.of_only (Only.set (g := q) W5 0 (.int .i64 ((g0 : Int) + 1)))).mono (fun x e => .inr e)))
          have HK8 := Lib.hid (show Kp (fun x => x = m ∨ x = q) W4 _ from (Kp.of_old (Below.refl W4.heap.size W4).drew).via HK9.out (fun _ _ e => e))
          refine ⟨keepsFrom_kp HK8.out (fun x e => ?_), ⟨HK8.out.block _ ?_ ?_, HK8.out.block _ ?_ ?_⟩, ?_, ?_, (Kp.stays _).trans HK4.out HK8.out⟩
          · rcases e with rfl | rfl
            · have := HQ3.out.lt; omega
            · exact HQ3.out.lt
          · have := HC1.out.lt; have := HK4.out.size; omega
          · have := HRG1.out; have := HQL.out; omega
          · have := HC2.out.lt; have := HK4.out.size; omega
          · have := HRG1.out; have := HQL.out; omega
          · have := HQ5.out.setCell 0 (.int .i64 ((g0 : Int) + 1))
            rw [HG0.out] at this
            simpa [Int.add_assoc, HG0.out] using this
          · have hD := HD5.out.kp (may := fun x => x = q) (Kp.of_only (Only.set (g := q) W5 0 (.int .i64 ((g0 : Int) + 1)))) (by have := HDL.out; have := HX3E.out; omega) (by have := HDL.out; have := HX3E.out; omega) (by omega)
            rw [HG0.out] at hD
            rw [wr]
            simpa [HG0.out] using hD
      case done =>
        rintro D W4 hD ⟨hk1, hk2, hk3⟩ hDD
        have hml : m < x3 := by have := HDL.out; have := HX3E.out; omega
        have hsl : s < x3 := by have := HDL.out; have := HX3E.out; omega
        have hxq : x3 < q := by have := HQ1.out; have := HX3E.out; omega
        have nX2 := Lib.hid (show ¬ (x3 = s ∨ x3 = m) by omega)
        have HS4 := Lib.hid (HS3.out.kpT HTP.out hk3 (fun x e => by rcases e with e | e; exact .inl (.inr e); (subst e; exact .inr HTQ.out)))
        have HX4 := Lib.hid (HX3.out.kp hk3 (by omega))
        have HK4 := Lib.hid hk3
        have HDD := Lib.hid hDD
        have hD3 := hD
        have HHS := Lib.hid (fun X => headSector_any E (by omega) X)
        have he2 : E % 2 < 2 := Nat.mod_lt _ (by omega)
        have hn2 : 2 ≤ C.length := by omega
        have hl1 : (wr C f (pad N X) area).length = C.length := wr_length C f (pad N X) area
        generalize hgc : wr C f (pad N X) area = C1 at *
        generalize hge : E % 2 = e2 at *
        have HGC := Lib.hid hgc
        have HGE := Lib.hid hge
        have HD4 := Lib.hid hk2
        clear hgc hge hk1 hk2 hk3 hDD
        gi_wp2
        refine region_meetF (fun a0 a' w' => a' = puts a0 [(34, .func (.yield l) #[] #[]), (35, pt0 J), (36, pt0 J), (37, .pointer (some ⟨J, 0, none⟩)), (38, ptr p), (39, .int .i64 0), (40, .bool true), (41, .bool false)] ∧ Hid (Dk w' p s m (settle C1 (idx 0 C1) B) (noC C1.length)) ∧ Hid (Kp (fun x => x = s ∨ x = m) W4 w')) ?_ ?_
        · have hR := Kp.stays (fun x => x = s ∨ x = m)
          refine fh_start (Kp (fun x => x = s ∨ x = m)) follows_mixed ?_
          have HS := Lib.hid (HS4.out.old (Below.refl W4.heap.size W4).drew)
          have HX := Lib.hid HX4.out.drew
          have HD := Lib.hid HD4.out.drew
          have HK : Hid (Kp (fun x => x = s ∨ x = m) W4 W4.drew) := Lib.hid (Kp.of_old (Below.refl W4.heap.size W4).drew)
          generalize W4.drew = u0 at HS HX HD HK ⊢
          refine fh_take (v := .func (.yield l) #[] #[]) hR 0 rfl (by kernel_rfl) (by kernel_rfl) (by kernel_rfl) (by kernel_rfl) (fun _ _ _ h => by cases h.1) (by rfl) (fun _ => rfl) ?_ ?_
          · intro W hW; exact exec_load_cell 150 _ rfl Tryz.isAgg150 rfl ((HX.out.kp hW nX2.out).cell rfl)
          try simp only [Act.put, List.getElem_toArray, List.getElem_cons_succ, List.getElem_cons_zero, List.setIfInBounds_toArray, List.set_cons_zero, List.set_cons_succ]
          refine fh_take (v := pt0 J) hR 1 rfl (by kernel_rfl) (by kernel_rfl) (by kernel_rfl) (by kernel_rfl) (fun _ _ _ h => by cases h.1) (by rfl) (fun _ => rfl) ?_ ?_
          · intro W hW; exact exec_load_cell 26 _ rfl Tryz.isAgg26 rfl (((HS.out.kpF hW (fun x _ e => e)).b2).cell rfl)
          try simp only [Act.put, List.getElem_toArray, List.getElem_cons_succ, List.getElem_cons_zero, List.setIfInBounds_toArray, List.set_cons_zero, List.set_cons_succ]
          refine fh_take (v := pt0 J) hR 2 rfl (by kernel_rfl) (by kernel_rfl) (by kernel_rfl) (by kernel_rfl) (fun _ _ _ h => by cases h.1) (by rfl) (fun _ => rfl) ?_ ?_
          · intro W hW; go_simp; try with_reducible rfl
          try simp only [Act.put, List.getElem_toArray, List.getElem_cons_succ, List.getElem_cons_zero, List.setIfInBounds_toArray, List.set_cons_zero, List.set_cons_succ]
          refine fh_take (v := .pointer (some ⟨J, 0, none⟩)) hR 3 rfl (by kernel_rfl) (by kernel_rfl) (by kernel_rfl) (by kernel_rfl) (fun _ _ _ h => by cases h.1) (by rfl) (fun _ => rfl) ?_ ?_
          · intro W hW; go_simp; try with_reducible rfl
          try simp only [Act.put, List.getElem_toArray, List.getElem_cons_succ, List.getElem_cons_zero, List.setIfInBounds_toArray, List.set_cons_zero, List.set_cons_succ]
          refine fh_take (v := ptr p) hR 4 rfl (by kernel_rfl) (by kernel_rfl) (by kernel_rfl) (by kernel_rfl) (fun _ _ _ h => by cases h.1) (by rfl) (fun _ => rfl) ?_ ?_
          · intro W hW; exact exec_load_cell 22 _ rfl Tryz.isAgg22 rfl (((HS.out.kpF hW (fun x _ e => e)).hj).cell rfl)
          try simp only [Act.put, List.getElem_toArray, List.getElem_cons_succ, List.getElem_cons_zero, List.setIfInBounds_toArray, List.set_cons_zero, List.set_cons_succ]
          refine fh_step hR 5 (by kernel_rfl) rfl fun K hK => ?_
          try simp only [Act.put, List.getElem_toArray, List.getElem_cons_succ, List.getElem_cons_zero, List.setIfInBounds_toArray, List.set_cons_zero, List.set_cons_succ]
          rw [if_pos (by rfl)]
          go_simp
          refine ⟨trivial, fun h => (by omega), ?_⟩
          refine (callsIn_wide.2 (flush_any HD.out)).mono ?_; rintro e u1 ⟨rfl, hd1, hk1⟩
          refine hK.out _ _ hk1 ?_
          clear hK K
          replace HD := Lib.hid hd1
          have HK1 := Lib.hid hk1
          replace HS := Lib.hid (HS.out.kpF hk1 (fun x _ e => e))
          clear hd1 hk1
          try simp only [Act.put, List.getElem_toArray, List.getElem_cons_succ, List.getElem_cons_zero, List.setIfInBounds_toArray, List.set_cons_zero, List.set_cons_succ]
          refine fh_step hR 6 (by kernel_rfl) rfl fun K hK => ?_
          try simp only [Act.put, List.getElem_toArray, List.getElem_cons_succ, List.getElem_cons_zero, List.setIfInBounds_toArray, List.set_cons_zero, List.set_cons_succ]
          rw [if_pos (by rfl)]
          obtain ⟨fn, tmps, assign, body, hy, hRd⟩ := HY.out u1 HS.out.yl
          have HRd := Lib.hid hRd
          clear hRd
          go_simp
          refine ⟨fun h => (by omega), ?_⟩
          refine (round_wide HRd.out).mono ?_; rintro e u9 ⟨rfl, hu⟩; subst u9
          refine hK.out _ _ (hR.refl _) ?_
          clear hK K hy
          try simp only [Act.put, List.getElem_toArray, List.getElem_cons_succ, List.getElem_cons_zero, List.setIfInBounds_toArray, List.set_cons_zero, List.set_cons_succ]
          refine fh_take (v := .bool false) hR 7 rfl (by kernel_rfl) (by kernel_rfl) (by kernel_rfl) (by kernel_rfl) (fun _ _ _ h => by cases h.1) (by rfl) (fun _ => rfl) ?_ ?_
          · intro W hW; go_simp; try with_reducible rfl
          try simp only [Act.put, List.getElem_toArray, List.getElem_cons_succ, List.getElem_cons_zero, List.setIfInBounds_toArray, List.set_cons_zero, List.set_cons_succ]
          refine fh_done (by kernel_rfl) ?_ _
          refine ⟨rfl, ?_, HD, Lib.hid (hR.trans HK.out HK1.out)⟩
          simp only [puts, List.foldl_cons, List.foldl_nil, Act.put, List.getElem_toArray, List.getElem_cons_succ, List.getElem_cons_zero, List.setIfInBounds_toArray, List.set_cons_zero, List.set_cons_succ]
        · rintro a' W5 ⟨rfl, HD5, HK5⟩
          simp only [puts, List.foldl_cons, List.foldl_nil, Act.put, List.getElem_toArray, List.getElem_cons_succ, List.getElem_cons_zero, List.setIfInBounds_toArray, List.set_cons_zero, List.set_cons_succ]
          have HS5 := Lib.hid (HS4.out.kpF HK5.out (fun x _ e => e))
          have HX5 := Lib.hid (HX4.out.kp HK5.out nX2.out)
          have HL1 := Lib.hid hl1
          rw [hl1] at HD5
          obtain ⟨n0, hn0⟩ : ∃ n0, n0 = C.length := ⟨_, rfl⟩
          have HN0 := Lib.hid hn0
          rw [← hn0] at HD5 hn2
          generalize hgb : settle C1 (idx 0 C1) B = B1 at *
          have HGB := Lib.hid hgb
          clear hgb hn0 hl1 HS4 HX4
          gi_wp2
          refine region_meetF (fun a0 a' w' => ∃ R2, a' = puts a0 [(42, .func (.yield l) #[] #[]), (43, pt0 J), (44, pt0 J), (45, .pointer (some ⟨J, 0, none⟩)), (46, ptr p), (47, pt0 L), (48, pt0 L), (49, pt0 L), (50, .int .u64 (E : Int)), (51, .int .i64 (e2 : Int)), (52, pt0 L), (53, pt0 L), (54, pt0 L), (55, .int .u64 (E : Int)), (56, pt0 J), (57, pt0 J), (58, .pointer (some ⟨J, 1, none⟩)), (59, .int .i64 (area : Int)), (60, .slice (some ⟨R2, 0, none⟩) 256 256), (61, .int .i64 0), (62, .bool true), (63, .bool false)] ∧ Hid (Dk w' p s m B1 ((noC n0).set e2 (some (headB E area)))) ∧ Hid (Kp (fun x => x = s ∨ x = m) W5 w')) ?_ ?_
          · have hR := Kp.stays (fun x => x = s ∨ x = m)
            refine fh_start (Kp (fun x => x = s ∨ x = m)) follows_mixed ?_
            have HS := Lib.hid (HS5.out.old (Below.refl W5.heap.size W5).drew)
            have HX := Lib.hid HX5.out.drew
            have HD := Lib.hid HD5.out.drew
            have HK : Hid (Kp (fun x => x = s ∨ x = m) W5 W5.drew) := Lib.hid (Kp.of_old (Below.refl W5.heap.size W5).drew)
            generalize W5.drew = u0 at HS HX HD HK ⊢
            refine fh_take (v := .func (.yield l) #[] #[]) hR 0 rfl (by kernel_rfl) (by kernel_rfl) (by kernel_rfl) (by kernel_rfl) (fun _ _ _ h => by cases h.1) (by rfl) (fun _ => rfl) ?_ ?_
            · intro W hW; exact exec_load_cell 150 _ rfl Tryz.isAgg150 rfl ((HX.out.kp hW nX2.out).cell rfl)
            try simp only [Act.put, List.getElem_toArray, List.getElem_cons_succ, List.getElem_cons_zero, List.setIfInBounds_toArray, List.set_cons_zero, List.set_cons_succ]
            refine fh_take (v := pt0 J) hR 1 rfl (by kernel_rfl) (by kernel_rfl) (by kernel_rfl) (by kernel_rfl) (fun _ _ _ h => by cases h.1) (by rfl) (fun _ => rfl) ?_ ?_
            · intro W hW; exact exec_load_cell 26 _ rfl Tryz.isAgg26 rfl (((HS.out.kpF hW (fun x _ e => e)).b2).cell rfl)
            try simp only [Act.put, List.getElem_toArray, List.getElem_cons_succ, List.getElem_cons_zero, List.setIfInBounds_toArray, List.set_cons_zero, List.set_cons_succ]
            refine fh_take (v := pt0 J) hR 2 rfl (by kernel_rfl) (by kernel_rfl) (by kernel_rfl) (by kernel_rfl) (fun _ _ _ h => by cases h.1) (by rfl) (fun _ => rfl) ?_ ?_
            · intro W hW; go_simp; try with_reducible rfl
            try simp only [Act.put, List.getElem_toArray, List.getElem_cons_succ, List.getElem_cons_zero, List.setIfInBounds_toArray, List.set_cons_zero, List.set_cons_succ]
            refine fh_take (v := .pointer (some ⟨J, 0, none⟩)) hR 3 rfl (by kernel_rfl) (by kernel_rfl) (by kernel_rfl) (by kernel_rfl) (fun _ _ _ h => by cases h.1) (by rfl) (fun _ => rfl) ?_ ?_
            · intro W hW; go_simp; try with_reducible rfl
            try simp only [Act.put, List.getElem_toArray, List.getElem_cons_succ, List.getElem_cons_zero, List.setIfInBounds_toArray, List.set_cons_zero, List.set_cons_succ]
            refine fh_take (v := ptr p) hR 4 rfl (by kernel_rfl) (by kernel_rfl) (by kernel_rfl) (by kernel_rfl) (fun _ _ _ h => by cases h.1) (by rfl) (fun _ => rfl) ?_ ?_
            · intro W hW; exact exec_load_cell 22 _ rfl Tryz.isAgg22 rfl (((HS.out.kpF hW (fun x _ e => e)).hj).cell rfl)
            try simp only [Act.put, List.getElem_toArray, List.getElem_cons_succ, List.getElem_cons_zero, List.setIfInBounds_toArray, List.set_cons_zero, List.set_cons_succ]
            refine fh_take (v := pt0 L) hR 5 rfl (by kernel_rfl) (by kernel_rfl) (by kernel_rfl) (by kernel_rfl) (fun _ _ _ h => by cases h.1) (by rfl) (fun _ => rfl) ?_ ?_
            · intro W hW; exact exec_load_cell 81 _ rfl Tryz.isAgg81 rfl (((HS.out.kpF hW (fun x _ e => e)).b1).cell rfl)
            try simp only [Act.put, List.getElem_toArray, List.getElem_cons_succ, List.getElem_cons_zero, List.setIfInBounds_toArray, List.set_cons_zero, List.set_cons_succ]
            refine fh_take (v := pt0 L) hR 6 rfl (by kernel_rfl) (by kernel_rfl) (by kernel_rfl) (by kernel_rfl) (fun _ _ _ h => by cases h.1) (by rfl) (fun _ => rfl) ?_ ?_
            · intro W hW; go_simp; try with_reducible rfl
            try simp only [Act.put, List.getElem_toArray, List.getElem_cons_succ, List.getElem_cons_zero, List.setIfInBounds_toArray, List.set_cons_zero, List.set_cons_succ]
            refine fh_take (v := pt0 L) hR 7 rfl (by kernel_rfl) (by kernel_rfl) (by kernel_rfl) (by kernel_rfl) (fun _ _ _ h => by cases h.1) (by rfl) (fun _ => rfl) ?_ ?_
            · intro W hW; go_simp; try with_reducible rfl
            try simp only [Act.put, List.getElem_toArray, List.getElem_cons_succ, List.getElem_cons_zero, List.setIfInBounds_toArray, List.set_cons_zero, List.set_cons_succ]
            refine fh_take (v := .int .u64 (E : Int)) hR 8 rfl (by kernel_rfl) (by kernel_rfl) (by kernel_rfl) (by kernel_rfl) (fun _ _ _ h => by cases h.1) (by rfl) (fun _ => rfl) ?_ ?_
            · intro W hW; exact exec_load_cell 40 _ rfl Tryz.isAgg40 rfl (HS.out.kpF hW (fun x _ e => e)).epoch
            try simp only [Act.put, List.getElem_toArray, List.getElem_cons_succ, List.getElem_cons_zero, List.setIfInBounds_toArray, List.set_cons_zero, List.set_cons_succ]
            refine fh_take (v := pt0 L) hR 10 rfl (by kernel_rfl) (by kernel_rfl) (by kernel_rfl) (by kernel_rfl) (fun _ _ _ h => by cases h.1) (by rfl) (fun _ => rfl) ?_ ?_
            · intro W hW; exact exec_load_cell 81 _ rfl Tryz.isAgg81 rfl (((HS.out.kpF hW (fun x _ e => e)).b1).cell rfl)
            try simp only [Act.put, List.getElem_toArray, List.getElem_cons_succ, List.getElem_cons_zero, List.setIfInBounds_toArray, List.set_cons_zero, List.set_cons_succ]
            refine fh_take (v := pt0 L) hR 11 rfl (by kernel_rfl) (by kernel_rfl) (by kernel_rfl) (by kernel_rfl) (fun _ _ _ h => by cases h.1) (by rfl) (fun _ => rfl) ?_ ?_
            · intro W hW; go_simp; try with_reducible rfl
            try simp only [Act.put, List.getElem_toArray, List.getElem_cons_succ, List.getElem_cons_zero, List.setIfInBounds_toArray, List.set_cons_zero, List.set_cons_succ]
            refine fh_take (v := pt0 L) hR 12 rfl (by kernel_rfl) (by kernel_rfl) (by kernel_rfl) (by kernel_rfl) (fun _ _ _ h => by cases h.1) (by rfl) (fun _ => rfl) ?_ ?_
            · intro W hW; go_simp; try with_reducible rfl
            try simp only [Act.put, List.getElem_toArray, List.getElem_cons_succ, List.getElem_cons_zero, List.setIfInBounds_toArray, List.set_cons_zero, List.set_cons_succ]
            refine fh_take (v := .int .u64 (E : Int)) hR 13 rfl (by kernel_rfl) (by kernel_rfl) (by kernel_rfl) (by kernel_rfl) (fun _ _ _ h => by cases h.1) (by rfl) (fun _ => rfl) ?_ ?_
            · intro W hW; exact exec_load_cell 40 _ rfl Tryz.isAgg40 rfl (HS.out.kpF hW (fun x _ e => e)).epoch
            try simp only [Act.put, List.getElem_toArray, List.getElem_cons_succ, List.getElem_cons_zero, List.setIfInBounds_toArray, List.set_cons_zero, List.set_cons_succ]
            refine fh_take (v := pt0 J) hR 14 rfl (by kernel_rfl) (by kernel_rfl) (by kernel_rfl) (by kernel_rfl) (fun _ _ _ h => by cases h.1) (by rfl) (fun _ => rfl) ?_ ?_
            · intro W hW; exact exec_load_cell 26 _ rfl Tryz.isAgg26 rfl (((HS.out.kpF hW (fun x _ e => e)).b2).cell rfl)
            try simp only [Act.put, List.getElem_toArray, List.getElem_cons_succ, List.getElem_cons_zero, List.setIfInBounds_toArray, List.set_cons_zero, List.set_cons_succ]
            refine fh_take (v := pt0 J) hR 15 rfl (by kernel_rfl) (by kernel_rfl) (by kernel_rfl) (by kernel_rfl) (fun _ _ _ h => by cases h.1) (by rfl) (fun _ => rfl) ?_ ?_
            · intro W hW; go_simp; try with_reducible rfl
            try simp only [Act.put, List.getElem_toArray, List.getElem_cons_succ, List.getElem_cons_zero, List.setIfInBounds_toArray, List.set_cons_zero, List.set_cons_succ]
            refine fh_take (v := .pointer (some ⟨J, 1, none⟩)) hR 16 rfl (by kernel_rfl) (by kernel_rfl) (by kernel_rfl) (by kernel_rfl) (fun _ _ _ h => by cases h.1) (by rfl) (fun _ => rfl) ?_ ?_
            · intro W hW; go_simp; try with_reducible rfl
            try simp only [Act.put, List.getElem_toArray, List.getElem_cons_succ, List.getElem_cons_zero, List.setIfInBounds_toArray, List.set_cons_zero, List.set_cons_succ]
            refine fh_take (v := .int .i64 (area : Int)) hR 17 rfl (by kernel_rfl) (by kernel_rfl) (by kernel_rfl) (by kernel_rfl) (fun _ _ _ h => by cases h.1) (by rfl) (fun _ => rfl) ?_ ?_
            · intro W hW; exact exec_load_cell 3 _ rfl Tryz.isAgg3 rfl (((HS.out.kpF hW (fun x _ e => e)).hj).cell rfl)
            try simp only [Act.put, List.getElem_toArray, List.getElem_cons_succ, List.getElem_cons_zero, List.setIfInBounds_toArray, List.set_cons_zero, List.set_cons_succ]
            refine fh_step hR 9 (by kernel_rfl) rfl fun K hK => ?_
            try simp only [Act.put, List.getElem_toArray, List.getElem_cons_succ, List.getElem_cons_zero, List.setIfInBounds_toArray, List.set_cons_zero, List.set_cons_succ]
            rw [if_pos (by rfl)]
            go_simp
            refine ⟨trivial, fun h => (by omega), ?_⟩
            refine (callsIn_wide.2 (HHS.out u0)).mono ?_; rintro e u9 ⟨rfl, hu⟩; subst u9
            refine hK.out _ _ (hR.refl _) ?_
            clear hK K
            try simp only [Act.put, List.getElem_toArray, List.getElem_cons_succ, List.getElem_cons_zero, List.setIfInBounds_toArray, List.set_cons_zero, List.set_cons_succ]
            refine fh_step hR 18 (by kernel_rfl) rfl fun K hK => ?_
            try simp only [Act.put, List.getElem_toArray, List.getElem_cons_succ, List.getElem_cons_zero, List.setIfInBounds_toArray, List.set_cons_zero, List.set_cons_succ]
            rw [if_pos (by rfl)]
            go_simp
            refine ⟨trivial, fun h => (by omega), ?_⟩
            refine (callsIn_wide.2 (head_any E area (by omega) (by omega) u0)).mono ?_; rintro e u1 ⟨R2, rfl, hR2, hrow, hb⟩
            refine hK.out _ _ (show Kp (fun x => x = s ∨ x = m) _ _ from Kp.of_old hb) ?_
            clear hK K
            replace HS := Lib.hid (HS.out.old hb)
            replace HD := Lib.hid (HD.out.old hb)
            replace HK := Lib.hid (hR.trans HK.out (Kp.of_old hb))
            have HRW2 := Lib.hid hrow
            clear hb hrow hR2
            try simp only [Act.put, List.getElem_toArray, List.getElem_cons_succ, List.getElem_cons_zero, List.setIfInBounds_toArray, List.set_cons_zero, List.set_cons_succ]
            refine fh_step hR 19 (by kernel_rfl) rfl fun K hK => ?_
            try simp only [Act.put, List.getElem_toArray, List.getElem_cons_succ, List.getElem_cons_zero, List.setIfInBounds_toArray, List.set_cons_zero, List.set_cons_succ]
            rw [if_pos (by rfl)]
            have hrd := HRW2.out.rd
            rw [headB_length] at hrd
            have HWK := Lib.hid (write_ok HD.out e2 (by rw [noC_len]; omega) hrd)
            clear hrd
            go_simp
            refine ⟨trivial, fun h => (by omega), ?_⟩
            refine (callsIn_wide.2 HWK.out).mono ?_; rintro e u2 ⟨rfl, hd1, hk1⟩
            have hk2 := hk1.mono (show ∀ x, x = m → x = s ∨ x = m from fun x e => .inr e)
            refine hK.out _ _ hk2 ?_
            clear hK K
            replace HD := Lib.hid hd1
            have HK1 := Lib.hid hk2
            replace HS := Lib.hid (HS.out.kpF hk2 (fun x _ e => e))
            clear hd1 hk1 hk2
            try simp only [Act.put, List.getElem_toArray, List.getElem_cons_succ, List.getElem_cons_zero, List.setIfInBounds_toArray, List.set_cons_zero, List.set_cons_succ]
            refine fh_step hR 20 (by kernel_rfl) rfl fun K hK => ?_
            try simp only [Act.put, List.getElem_toArray, List.getElem_cons_succ, List.getElem_cons_zero, List.setIfInBounds_toArray, List.set_cons_zero, List.set_cons_succ]
            rw [if_pos (by rfl)]
            obtain ⟨fn, tmps, assign, body, hy, hRd⟩ := HY.out u2 HS.out.yl
            have HRd := Lib.hid hRd
            clear hRd
            go_simp
            refine ⟨fun h => (by omega), ?_⟩
            refine (round_wide HRd.out).mono ?_; rintro e u9 ⟨rfl, hu⟩; subst u9
            refine hK.out _ _ (hR.refl _) ?_
            clear hK K hy
            try simp only [Act.put, List.getElem_toArray, List.getElem_cons_succ, List.getElem_cons_zero, List.setIfInBounds_toArray, List.set_cons_zero, List.set_cons_succ]
            refine fh_take (v := .bool false) hR 21 rfl (by kernel_rfl) (by kernel_rfl) (by kernel_rfl) (by kernel_rfl) (fun _ _ _ h => by cases h.1) (by rfl) (fun _ => rfl) ?_ ?_
            · intro W hW; go_simp; try with_reducible rfl
            try simp only [Act.put, List.getElem_toArray, List.getElem_cons_succ, List.getElem_cons_zero, List.setIfInBounds_toArray, List.set_cons_zero, List.set_cons_succ]
            refine fh_done (by kernel_rfl) ?_ _
            refine ⟨rfl, R2, ?_, HD, Lib.hid (hR.trans HK.out HK1.out)⟩
            simp only [puts, List.foldl_cons, List.foldl_nil, Act.put, List.getElem_toArray, List.getElem_cons_succ, List.getElem_cons_zero, List.setIfInBounds_toArray, List.set_cons_zero, List.set_cons_succ]
          · rintro a' W6 ⟨R2, rfl, HD6, HK6⟩
            simp only [puts, List.foldl_cons, List.foldl_nil, Act.put, List.getElem_toArray, List.getElem_cons_succ, List.getElem_cons_zero, List.setIfInBounds_toArray, List.set_cons_zero, List.set_cons_succ]
            have HS6 := Lib.hid (HS5.out.kpF HK6.out (fun x _ e => e))
            have HX6 := Lib.hid (HX5.out.kp HK6.out nX2.out)
            generalize hgc2 : (noC n0).set e2 (some (headB E area)) = C2 at *
            have HGC2 := Lib.hid hgc2
            clear hgc2 HS5 HX5
            gi_wp2
            refine region_meetF (fun a0 a' w' => a' = puts a0 [(64, .func (.yield l) #[] #[]), (65, pt0 J), (66, pt0 J), (67, .pointer (some ⟨J, 0, none⟩)), (68, ptr p), (69, .int .i64 0), (70, .bool true)] ∧ Hid (Dk w' p s m (settle C2 (idx 0 C2) B1) (noC C2.length)) ∧ Hid (Kp (fun x => x = s ∨ x = m) W6 w')) ?_ ?_
            · have hR := Kp.stays (fun x => x = s ∨ x = m)
              refine fh_start (Kp (fun x => x = s ∨ x = m)) follows_mixed ?_
              have HS := Lib.hid (HS6.out.old (Below.refl W6.heap.size W6).drew)
              have HX := Lib.hid HX6.out.drew
              have HD := Lib.hid HD6.out.drew
              have HK : Hid (Kp (fun x => x = s ∨ x = m) W6 W6.drew) := Lib.hid (Kp.of_old (Below.refl W6.heap.size W6).drew)
              generalize W6.drew = u0 at HS HX HD HK ⊢
              refine fh_take (v := .func (.yield l) #[] #[]) hR 0 rfl (by kernel_rfl) (by kernel_rfl) (by kernel_rfl) (by kernel_rfl) (fun _ _ _ h => by cases h.1) (by rfl) (fun _ => rfl) ?_ ?_
              · intro W hW; exact exec_load_cell 150 _ rfl Tryz.isAgg150 rfl ((HX.out.kp hW nX2.out).cell rfl)
              try simp only [Act.put, List.getElem_toArray, List.getElem_cons_succ, List.getElem_cons_zero, List.setIfInBounds_toArray, List.set_cons_zero, List.set_cons_succ]
              refine fh_take (v := pt0 J) hR 1 rfl (by kernel_rfl) (by kernel_rfl) (by kernel_rfl) (by kernel_rfl) (fun _ _ _ h => by cases h.1) (by rfl) (fun _ => rfl) ?_ ?_
              · intro W hW; exact exec_load_cell 26 _ rfl Tryz.isAgg26 rfl (((HS.out.kpF hW (fun x _ e => e)).b2).cell rfl)
              try simp only [Act.put, List.getElem_toArray, List.getElem_cons_succ, List.getElem_cons_zero, List.setIfInBounds_toArray, List.set_cons_zero, List.set_cons_succ]
              refine fh_take (v := pt0 J) hR 2 rfl (by kernel_rfl) (by kernel_rfl) (by kernel_rfl) (by kernel_rfl) (fun _ _ _ h => by cases h.1) (by rfl) (fun _ => rfl) ?_ ?_
              · intro W hW; go_simp; try with_reducible rfl
              try simp only [Act.put, List.getElem_toArray, List.getElem_cons_succ, List.getElem_cons_zero, List.setIfInBounds_toArray, List.set_cons_zero, List.set_cons_succ]
              refine fh_take (v := .pointer (some ⟨J, 0, none⟩)) hR 3 rfl (by kernel_rfl) (by kernel_rfl) (by kernel_rfl) (by kernel_rfl) (fun _ _ _ h => by cases h.1) (by rfl) (fun _ => rfl) ?_ ?_
              · intro W hW; go_simp; try with_reducible rfl
              try simp only [Act.put, List.getElem_toArray, List.getElem_cons_succ, List.getElem_cons_zero, List.setIfInBounds_toArray, List.set_cons_zero, List.set_cons_succ]
              refine fh_take (v := ptr p) hR 4 rfl (by kernel_rfl) (by kernel_rfl) (by kernel_rfl) (by kernel_rfl) (fun _ _ _ h => by cases h.1) (by rfl) (fun _ => rfl) ?_ ?_
              · intro W hW; exact exec_load_cell 22 _ rfl Tryz.isAgg22 rfl (((HS.out.kpF hW (fun x _ e => e)).hj).cell rfl)
              try simp only [Act.put, List.getElem_toArray, List.getElem_cons_succ, List.getElem_cons_zero, List.setIfInBounds_toArray, List.set_cons_zero, List.set_cons_succ]
              refine fh_step hR 5 (by kernel_rfl) rfl fun K hK => ?_
              try simp only [Act.put, List.getElem_toArray, List.getElem_cons_succ, List.getElem_cons_zero, List.setIfInBounds_toArray, List.set_cons_zero, List.set_cons_succ]
              rw [if_pos (by rfl)]
              go_simp
              refine ⟨trivial, fun h => (by omega), ?_⟩
              refine (callsIn_wide.2 (flush_any HD.out)).mono ?_; rintro e u1 ⟨rfl, hd1, hk1⟩
              refine hK.out _ _ hk1 ?_
              clear hK K
              replace HD := Lib.hid hd1
              have HK1 := Lib.hid hk1
              replace HS := Lib.hid (HS.out.kpF hk1 (fun x _ e => e))
              clear hd1 hk1
              try simp only [Act.put, List.getElem_toArray, List.getElem_cons_succ, List.getElem_cons_zero, List.setIfInBounds_toArray, List.set_cons_zero, List.set_cons_succ]
              refine fh_step hR 6 (by kernel_rfl) rfl fun K hK => ?_
              try simp only [Act.put, List.getElem_toArray, List.getElem_cons_succ, List.getElem_cons_zero, List.setIfInBounds_toArray, List.set_cons_zero, List.set_cons_succ]
              rw [if_pos (by rfl)]
              obtain ⟨fn, tmps, assign, body, hy, hRd⟩ := HY.out u1 HS.out.yl
              have HRd := Lib.hid hRd
              clear hRd
              go_simp
              refine ⟨fun h => (by omega), ?_⟩
              refine (round_wide HRd.out).mono ?_; rintro e u9 ⟨rfl, hu⟩; subst u9
              refine hK.out _ _ (hR.refl _) ?_
              clear hK K hy
              try simp only [Act.put, List.getElem_toArray, List.getElem_cons_succ, List.getElem_cons_zero, List.setIfInBounds_toArray, List.set_cons_zero, List.set_cons_succ]
              refine fh_done (by kernel_rfl) ?_ _
              refine ⟨rfl, ?_, HD, Lib.hid (hR.trans HK.out HK1.out)⟩
              simp only [puts, List.foldl_cons, List.foldl_nil, Act.put, List.getElem_toArray, List.getElem_cons_succ, List.getElem_cons_zero, List.setIfInBounds_toArray, List.set_cons_zero, List.set_cons_succ]
            · rintro a' W7 ⟨rfl, HD7, HK7⟩
              simp only [puts, List.foldl_cons, List.foldl_nil, Act.put, List.getElem_toArray, List.getElem_cons_succ, List.getElem_cons_zero, List.setIfInBounds_toArray, List.set_cons_zero, List.set_cons_succ]
              gi_wp2
              have hDl : D < W4.heap.size := (Array.getElem?_eq_some_iff.1 HDD.out).1
              have hK47 : Kp (fun x => x = s ∨ x = m) W4 W7 := (Kp.stays _).trans HK5.out ((Kp.stays _).trans HK6.out HK7.out)
              have hW3 := HB3.out.size
              have hQ3 := HQ3.out.lt
              have hx3 := HX3E.out
              have hdl := HDL.out
              have hDD7 := (hK47.block D hDl (by omega)).trans HDD.out
              refine ⟨by simp, .inl ⟨_, _, rfl, run_takeDeferred hDD7, ?_⟩⟩
              have hg7 := grownBy_putObj' W7 D (.deferred none)
              have hD9 := HD7.out.grow hg7 (fun r e => by injection e with e; omega)
              have hbeg : begB B C E area rs = settle C2 (idx 0 C2) B1 := by
                unfold begB
                simp only [HGE.out, HFF.out, HNN.out, HXX.out, HGC.out, HGB.out, ← HN0.out, HGC2.out]
              have hlen : C2.length = C.length := by rw [← HGC2.out, List.length_set, noC_len, HN0.out]
              refine ⟨_, results_none rfl _ _ _, ⟨_, rfl⟩, by rw [hbeg, ← hlen]; exact hD9, ?_⟩
              have hK34 : Kp (fun x => x = m ∨ x = q) W3 W4 := HK4.out
              refine ⟨hg7.os.trans (hK47.os.trans (hK34.os.trans HB3.out.os)), hg7.tape.trans (hK47.tape.trans (hK34.tape.trans HB3.out.tape)), hg7.output.trans (hK47.output.trans (hK34.output.trans HB3.out.output)), ?_, fun x hx hm => ?_⟩
              · have h1 := hg7.size; have h2 := hK47.size; have h3 := hK34.size; omega
              · have h2 := hK47.size
                have h3 := hK34.size
                refine (hg7.block x (by omega) (fun e => by injection e with e; omega)).trans ((hK47.block x (by omega) hm).trans ((hK34.block x (by omega) (fun e => ?_)).trans (HB3.out.block x hx)))
                rcases e with e | e
                · exact hm (.inr e)
                · omega
end
end Go.Proofs.YtgpfognglpfmoaaGreatDoor
