/- RecordNames: region 3, operation 11 first. -/
import Derived.Test.YtjaoaikcmbfnmaaNp
namespace Go.Proofs.Ytjaoaikcmbfnmaa
set_option maxRecDepth 100000
set_option linter.unusedSimpArgs false
set_option linter.unusedVariables false
open Go.RowKit

set_option maxHeartbeats 6400000 in
theorem br11 (w5 u0 : World) (C N b : List UInt8) (A3 : Option Addr) (k3 c1 c3 : Nat) (HLB : Hid (b.length = 12)) (HN8 : Hid ((cs8 N).length = 32)) (HRB : Hid (Rd w5 w5.heap.size A3 12 k3 b)) (HB : Hid (Below w5.heap.size w5 u0)) (HRead : Hid (∀ (W : World) (A : Option Addr) (c : Nat), Rd W W.heap.size A 13 c (b ++ [7]) → Calls Try.prog 9 #[.agg (cs8 C).toArray, .slice A 13 c] W fun e w' => ∃ A n c, e = .returned (.tuple #[.agg #[.int .u8 9, .slice A n c], .int .i64 12, .agg (cs8 N).toArray, .int .i64 0]) ∧ Ow w' W.heap.size (.slice A n c) [120, 121] ∧ Below W.heap.size W w')) : Br w5 u0 C N A3 k3 c1 c3 11 := by
  have hR := Sb.stays w5.heap.size
  unfold Br ops3
  refine ⟨_, rfl, fun K hK => ?_⟩
  dsimp only [frame3b]
  try simp only [Act.put, List.getElem_toArray, List.getElem_cons_succ, List.getElem_cons_zero, List.setIfInBounds_toArray, List.set_cons_zero, List.set_cons_succ]
  rw [if_pos (by rfl)]
  refine wp_alloc_z 31 rfl z31 zero31 ?_
  refine hK.out _ _ ((Below.refl _ _).alloc HB.out.size _) ?_
  clear hK K
  have HGp := Lib.hid (Bk.new u0 z31 31)
  have HTp := Lib.hid (show w5.heap.size ≤ u0.heap.size from HB.out.size)
  have HB := Lib.hid (HB.out.alloc HB.out.size (.cells z31.toArray 31))
  have HLp := Lib.hid (show u0.heap.size < (u0.alloc (.cells z31.toArray 31)).heap.size by simp)
  generalize hgw : u0.alloc (.cells z31.toArray 31) = u1 at HB HGp HLp ⊢
  clear hgw
  generalize hgw : u0.heap.size = p at HGp HTp HLp ⊢
  clear hgw
  try simp only [Act.put, List.getElem_toArray, List.getElem_cons_succ, List.getElem_cons_zero, List.setIfInBounds_toArray, List.set_cons_zero, List.set_cons_succ]
  refine reg_fork (rs := [2, 3, 12]) hR (by kernel_rfl) (by simp) ?_
  intro i hi; simp only [List.mem_cons, List.not_mem_nil, or_false] at hi
  rcases hi with rfl | rfl | rfl
  · refine ⟨_, rfl, fun K hK => ?_⟩
    try simp only [Act.put, List.getElem_toArray, List.getElem_cons_succ, List.getElem_cons_zero, List.setIfInBounds_toArray, List.set_cons_zero, List.set_cons_succ]
    rw [if_pos (by rfl)]
    go_simp
    refine (Own_any u1 ((HRB.out.below HB.out).more HB.out.size) (by omega)).mono ?_; rintro e u2 ⟨v29, rfl, ho, hb⟩
    refine hK.out _ _ (show Below _ _ _ from hb.mono HB.out.size) ?_
    clear hK K
    have HGp := Lib.hid (HGp.out.keep hb)
    have HNp := Lib.hid (show Value.ownBlock (v29) ≠ some p from fun e => by have h1 := (World.ownsRow.lt ho _ e).1; have h2 := HLp.out; omega)
    have HO := Lib.hid (Ow.lower ho HB.out.size)
    clear ho
    have HB := Lib.hid (HB.out.trans (hb.mono HB.out.size))
    clear hb
    have HLp := Lib.hid (show p < u2.heap.size from HGp.out.lt)
    try simp only [Act.put, List.getElem_toArray, List.getElem_cons_succ, List.getElem_cons_zero, List.setIfInBounds_toArray, List.set_cons_zero, List.set_cons_succ]
    refine reg_fork (rs := [3, 12]) hR (by kernel_rfl) (by simp) ?_
    intro i hi; simp only [List.mem_cons, List.not_mem_nil, or_false] at hi
    rcases hi with rfl | rfl
    · refine ⟨_, rfl, fun K hK => ?_⟩
      try simp only [Act.put, List.getElem_toArray, List.getElem_cons_succ, List.getElem_cons_zero, List.setIfInBounds_toArray, List.set_cons_zero, List.set_cons_succ]
      rw [if_pos (by rfl)]
      go_simp
      refine hK.out _ _ ((Below.refl _ _).alloc HB.out.size _) ?_
      clear hK K
      have HGs := Lib.hid (Bk.new u2 ([.int .u8 7] : List Value) 5)
      have HXps := Lib.hid (show p ≠ u2.heap.size from by have h1 := HGp.out.lt; omega)
      have HGp := Lib.hid (HGp.out.old (.cells ([.int .u8 7] : List Value).toArray 5))
      have HNs := Lib.hid (show Value.ownBlock (v29) ≠ some u2.heap.size from fun e => by have h1 := (World.ownsRow.lt HO.out _ e).2; omega)
      have HO := Lib.hid (Ow.alloc HO.out (.cells ([.int .u8 7] : List Value).toArray 5))
      have HTs := Lib.hid (show w5.heap.size ≤ u2.heap.size from HB.out.size)
      have HB := Lib.hid (HB.out.alloc HB.out.size (.cells ([.int .u8 7] : List Value).toArray 5))
      have HLs := Lib.hid (show u2.heap.size < (u2.alloc (.cells ([.int .u8 7] : List Value).toArray 5)).heap.size by simp)
      have HLp := Lib.hid (show p < (u2.alloc (.cells ([.int .u8 7] : List Value).toArray 5)).heap.size by have h1 := HLp.out; have h2 := HLs.out; omega)
      generalize hgw : u2.alloc (.cells ([.int .u8 7] : List Value).toArray 5) = u3 at HB HGp HGs HO HLp HLs ⊢
      clear hgw
      generalize hgw : u2.heap.size = s at HGs HTs HLs HXps HNs ⊢
      clear hgw
      try simp only [Act.put, List.getElem_toArray, List.getElem_cons_succ, List.getElem_cons_zero, List.setIfInBounds_toArray, List.set_cons_zero, List.set_cons_succ]
      refine reg_fork (rs := [4, 12]) hR (by kernel_rfl) (by simp) ?_
      intro i hi; simp only [List.mem_cons, List.not_mem_nil, or_false] at hi
      rcases hi with rfl | rfl
      · refine ⟨_, rfl, fun K hK => ?_⟩
        try simp only [Act.put, List.getElem_toArray, List.getElem_cons_succ, List.getElem_cons_zero, List.setIfInBounds_toArray, List.set_cons_zero, List.set_cons_succ]
        rw [if_pos (by rfl)]
        refine wp_app2 _ _ rfl rfl HO.out rfl (rd7 HGs.out) (by rw [HLB.out]; omega) HB.out.size ?_
        intro v31 u4 ho hg hv
        refine hK.out _ _ (show Below _ _ _ from ⟨hg.os, hg.tape, hg.output, hg.size, fun i hi => hg.block i (Nat.lt_of_lt_of_le hi HB.out.size) (fun e => by have h1 := (World.ownsRow.lt HO.out _ e.symm).1; omega)⟩) ?_
        clear hK K
        have HB := Lib.hid (HB.out.trans (show Below w5.heap.size u3 u4 from ⟨hg.os, hg.tape, hg.output, hg.size, fun i hi => hg.block i (Nat.lt_of_lt_of_le hi HB.out.size) (fun e => by have h1 := (World.ownsRow.lt HO.out _ e.symm).1; omega)⟩))
        have HN1p := Lib.hid (own_ne hv HNp.out HGp.out.lt)
        have HGp := Lib.hid (Bk.grow HGp.out hg HNp.out)
        have HLp := Lib.hid (show p < u4.heap.size from HGp.out.lt)
        have HN1s := Lib.hid (own_ne hv HNs.out HGs.out.lt)
        have HGs := Lib.hid (Bk.grow HGs.out hg HNs.out)
        have HLs := Lib.hid (show s < u4.heap.size from HGs.out.lt)
        obtain ⟨A31, c31, ev, -⟩ := ho.rdN (n := 13) (by rw [List.length_append, HLB.out]; rfl)
        subst ev
        have HO := Lib.hid ho
        clear ho hg hv
        have HNp := HN1p
        clear HN1p
        have HNs := HN1s
        clear HN1s
        have HRV := Lib.hid (HO.out.rdN (n := 13) (by rw [List.length_append, HLB.out]; rfl))
        try simp only [Act.put, List.getElem_toArray, List.getElem_cons_succ, List.getElem_cons_zero, List.setIfInBounds_toArray, List.set_cons_zero, List.set_cons_succ]
        refine reg_fork (rs := [5, 12]) hR (by kernel_rfl) (by simp) ?_
        intro i hi; simp only [List.mem_cons, List.not_mem_nil, or_false] at hi
        rcases hi with rfl | rfl
        · refine ⟨_, rfl, fun K hK => ?_⟩
          try simp only [Act.put, List.getElem_toArray, List.getElem_cons_succ, List.getElem_cons_zero, List.setIfInBounds_toArray, List.set_cons_zero, List.set_cons_succ]
          rw [if_pos (by rfl)]
          try clear HRV
          go_simp
          refine (HRead.out u4 _ _ (rd_own HO.out (by rw [List.length_append, HLB.out]; rfl))).mono ?_; rintro e u5 ⟨A22, n22, c22, rfl, ho, hb⟩
          refine hK.out _ _ (show Below _ _ _ from hb.mono HB.out.size) ?_
          clear hK K
          have HGp := Lib.hid (HGp.out.keep hb)
          have HGs := Lib.hid (HGs.out.keep hb)
          have HNp := Lib.hid (show Value.ownBlock (.slice A22 n22 c22) ≠ some p from fun e => by have h1 := (World.ownsRow.lt ho _ e).1; have h2 := HLp.out; omega)
          have HNs := Lib.hid (show Value.ownBlock (.slice A22 n22 c22) ≠ some s from fun e => by have h1 := (World.ownsRow.lt ho _ e).1; have h2 := HLs.out; omega)
          have HO := Lib.hid (Ow.lower ho HB.out.size)
          clear ho
          have HB := Lib.hid (HB.out.trans (hb.mono HB.out.size))
          clear hb
          have HLp := Lib.hid (show p < u5.heap.size from HGp.out.lt)
          have HLs := Lib.hid (show s < u5.heap.size from HGs.out.lt)
          try simp only [Act.put, List.getElem_toArray, List.getElem_cons_succ, List.getElem_cons_zero, List.setIfInBounds_toArray, List.set_cons_zero, List.set_cons_succ]
          refine reg_take (v := .tuple #[.agg #[.int .u8 9, .slice A22 n22 c22], .int .i64 12, .agg (cs8 N).toArray, .int .i64 0]) hR 6 rfl (by kernel_rfl) (by kernel_rfl) (by kernel_rfl) (fun _ _ _ h => by cases h.1) (by rfl) ?_ ?_
          · intro W hW; go_simp; try with_reducible rfl
          try simp only [Act.put, List.getElem_toArray, List.getElem_cons_succ, List.getElem_cons_zero, List.setIfInBounds_toArray, List.set_cons_zero, List.set_cons_succ]
          refine reg_take (v := .agg #[.int .u8 9, .slice A22 n22 c22]) hR 7 rfl (by kernel_rfl) (by kernel_rfl) (by kernel_rfl) (fun _ _ _ h => by cases h.1) (by rfl) ?_ ?_
          · intro W hW; go_simp; try with_reducible rfl
          try simp only [Act.put, List.getElem_toArray, List.getElem_cons_succ, List.getElem_cons_zero, List.setIfInBounds_toArray, List.set_cons_zero, List.set_cons_succ]
          refine reg_take (v := .int .i64 12) hR 8 rfl (by kernel_rfl) (by kernel_rfl) (by kernel_rfl) (fun _ _ _ h => by cases h.1) (by rfl) ?_ ?_
          · intro W hW; go_simp; try with_reducible rfl
          try simp only [Act.put, List.getElem_toArray, List.getElem_cons_succ, List.getElem_cons_zero, List.setIfInBounds_toArray, List.set_cons_zero, List.set_cons_succ]
          refine reg_take (v := .agg (cs8 N).toArray) hR 9 rfl (by kernel_rfl) (by kernel_rfl) (by kernel_rfl) (fun _ _ _ h => by cases h.1) (by rfl) ?_ ?_
          · intro W hW; go_simp; try with_reducible rfl
          try simp only [Act.put, List.getElem_toArray, List.getElem_cons_succ, List.getElem_cons_zero, List.setIfInBounds_toArray, List.set_cons_zero, List.set_cons_succ]
          refine reg_take (v := .int .i64 0) hR 10 rfl (by kernel_rfl) (by kernel_rfl) (by kernel_rfl) (fun _ _ _ h => by cases h.1) (by rfl) ?_ ?_
          · intro W hW; go_simp; try with_reducible rfl
          try simp only [Act.put, List.getElem_toArray, List.getElem_cons_succ, List.getElem_cons_zero, List.setIfInBounds_toArray, List.set_cons_zero, List.set_cons_succ]
          refine reg_step hR 12 (by kernel_rfl) rfl fun K hK => ?_
          try simp only [Act.put, List.getElem_toArray, List.getElem_cons_succ, List.getElem_cons_zero, List.setIfInBounds_toArray, List.set_cons_zero, List.set_cons_succ]
          rw [if_pos (by rfl)]
          refine wp_alloc_z 23 rfl z36 zero36 ?_
          refine hK.out _ _ ((Below.refl _ _).alloc HB.out.size _) ?_
          clear hK K
          have HGq := Lib.hid (Bk.new u5 z36 23)
          have HXpq := Lib.hid (show p ≠ u5.heap.size from by have h1 := HGp.out.lt; omega)
          have HGp := Lib.hid (HGp.out.old (.cells z36.toArray 23))
          have HXsq := Lib.hid (show s ≠ u5.heap.size from by have h1 := HGs.out.lt; omega)
          have HGs := Lib.hid (HGs.out.old (.cells z36.toArray 23))
          have HNq := Lib.hid (show Value.ownBlock (.slice A22 n22 c22) ≠ some u5.heap.size from fun e => by have h1 := (World.ownsRow.lt HO.out _ e).2; omega)
          have HO := Lib.hid (Ow.alloc HO.out (.cells z36.toArray 23))
          have HTq := Lib.hid (show w5.heap.size ≤ u5.heap.size from HB.out.size)
          have HB := Lib.hid (HB.out.alloc HB.out.size (.cells z36.toArray 23))
          have HLq := Lib.hid (show u5.heap.size < (u5.alloc (.cells z36.toArray 23)).heap.size by simp)
          have HLp := Lib.hid (show p < (u5.alloc (.cells z36.toArray 23)).heap.size by have h1 := HLp.out; have h2 := HLq.out; omega)
          have HLs := Lib.hid (show s < (u5.alloc (.cells z36.toArray 23)).heap.size by have h1 := HLs.out; have h2 := HLq.out; omega)
          generalize hgw : u5.alloc (.cells z36.toArray 23) = u6 at HB HGp HGs HGq HO HLp HLs HLq ⊢
          clear hgw
          generalize hgw : u5.heap.size = q at HGq HTq HLq HXpq HXsq HNq ⊢
          clear hgw
          try simp only [Act.put, List.getElem_toArray, List.getElem_cons_succ, List.getElem_cons_zero, List.setIfInBounds_toArray, List.set_cons_zero, List.set_cons_succ]
          refine reg_step hR 13 (by kernel_rfl) rfl fun K hK => ?_
          try simp only [Act.put, List.getElem_toArray, List.getElem_cons_succ, List.getElem_cons_zero, List.setIfInBounds_toArray, List.set_cons_zero, List.set_cons_succ]
          rw [if_pos (by rfl)]
          refine wp_store_bk 31 _ _ rfl p rfl ([.int .u8 9, .slice A22 n22 c22] : List Value) z31 rfl HGp.out info31 rfl (rec_all _ _ _ _) ?_
          refine hK.out _ _ (below_setRow (Below.refl _ _) HTp.out _) ?_
          clear hK K
          have HGp := Lib.hid (HGp.out.setRow ([.int .u8 9, .slice A22 n22 c22] : List Value))
          have HGs := Lib.hid (HGs.out.other (show s ≠ p from HXps.out.symm) (([.int .u8 9, .slice A22 n22 c22] : List Value)).toArray)
          have HGq := Lib.hid (HGq.out.other (show q ≠ p from HXpq.out.symm) (([.int .u8 9, .slice A22 n22 c22] : List Value)).toArray)
          have HO := Lib.hid (World.ownsRow.kept HO.out (grown_setRow u6 p (([.int .u8 9, .slice A22 n22 c22] : List Value)).toArray) (.inr HNp.out))
          have HB := Lib.hid (below_setRow HB.out HTp.out (([.int .u8 9, .slice A22 n22 c22] : List Value)).toArray)
          generalize hgw : u6.setRow p (([.int .u8 9, .slice A22 n22 c22] : List Value)).toArray = u7 at HB HGp HGs HGq HO ⊢
          clear hgw
          try simp only [Act.put, List.getElem_toArray, List.getElem_cons_succ, List.getElem_cons_zero, List.setIfInBounds_toArray, List.set_cons_zero, List.set_cons_succ]
          refine reg_take (v := .int .i64 12) hR 14 rfl (by kernel_rfl) (by kernel_rfl) (by kernel_rfl) (fun _ _ _ h => by cases h.1) (by rfl) ?_ ?_
          · intro W hW; go_simp; try with_reducible rfl
          try simp only [Act.put, List.getElem_toArray, List.getElem_cons_succ, List.getElem_cons_zero, List.setIfInBounds_toArray, List.set_cons_zero, List.set_cons_succ]
          refine reg_step hR 15 (by kernel_rfl) rfl fun K hK => ?_
          try simp only [Act.put, List.getElem_toArray, List.getElem_cons_succ, List.getElem_cons_zero, List.setIfInBounds_toArray, List.set_cons_zero, List.set_cons_succ]
          rw [if_pos (by rfl)]
          refine wp_store_bk 23 _ _ rfl q rfl (cs8 N) z36 rfl HGq.out (by rw [HN8.out]; exact info36) (by rw [HN8.out]; exact len_z36) (cs8_all _) ?_
          refine hK.out _ _ (below_setRow (Below.refl _ _) HTq.out _) ?_
          clear hK K
          have HGq := Lib.hid (HGq.out.setRow (cs8 N))
          have HGp := Lib.hid (HGp.out.other (show p ≠ q from HXpq.out) ((cs8 N)).toArray)
          have HGs := Lib.hid (HGs.out.other (show s ≠ q from HXsq.out) ((cs8 N)).toArray)
          have HO := Lib.hid (World.ownsRow.kept HO.out (grown_setRow u7 q ((cs8 N)).toArray) (.inr HNq.out))
          have HB := Lib.hid (below_setRow HB.out HTq.out ((cs8 N)).toArray)
          generalize hgw : u7.setRow q ((cs8 N)).toArray = u8 at HB HGp HGs HGq HO ⊢
          clear hgw
          try simp only [Act.put, List.getElem_toArray, List.getElem_cons_succ, List.getElem_cons_zero, List.setIfInBounds_toArray, List.set_cons_zero, List.set_cons_succ]
          refine reg_take (v := .int .i64 0) hR 16 rfl (by kernel_rfl) (by kernel_rfl) (by kernel_rfl) (fun _ _ _ h => by cases h.1) (by rfl) ?_ ?_
          · intro W hW; go_simp; try with_reducible rfl
          try simp only [Act.put, List.getElem_toArray, List.getElem_cons_succ, List.getElem_cons_zero, List.setIfInBounds_toArray, List.set_cons_zero, List.set_cons_succ]
          refine reg_done (by kernel_rfl) ?_ _
          refine ⟨rfl, p, q, s, v29, A31, c31, A22, n22, c22, ?_, HTp, HTq, HXpq, HGp, HGq, HO, HB⟩
          simp only [frame3, puts, List.foldl_cons, List.foldl_nil, Act.put, List.getElem_toArray, List.getElem_cons_succ, List.getElem_cons_zero, List.setIfInBounds_toArray, List.set_cons_zero, List.set_cons_succ]
        · refine ⟨_, rfl, fun K hK => ?_⟩
          try simp only [Act.put, List.getElem_toArray, List.getElem_cons_succ, List.getElem_cons_zero, List.setIfInBounds_toArray, List.set_cons_zero, List.set_cons_succ]
          rw [if_pos (by rfl)]
          refine wp_alloc_z 23 rfl z36 zero36 ?_
          refine hK.out _ _ ((Below.refl _ _).alloc HB.out.size _) ?_
          clear hK K
          have HGq := Lib.hid (Bk.new u4 z36 23)
          have HXpq := Lib.hid (show p ≠ u4.heap.size from by have h1 := HGp.out.lt; omega)
          have HGp := Lib.hid (HGp.out.old (.cells z36.toArray 23))
          have HXsq := Lib.hid (show s ≠ u4.heap.size from by have h1 := HGs.out.lt; omega)
          have HGs := Lib.hid (HGs.out.old (.cells z36.toArray 23))
          have HNq := Lib.hid (show Value.ownBlock (.slice A31 13 c31) ≠ some u4.heap.size from fun e => by have h1 := (World.ownsRow.lt HO.out _ e).2; omega)
          have HO := Lib.hid (Ow.alloc HO.out (.cells z36.toArray 23))
          have HTq := Lib.hid (show w5.heap.size ≤ u4.heap.size from HB.out.size)
          have HB := Lib.hid (HB.out.alloc HB.out.size (.cells z36.toArray 23))
          have HLq := Lib.hid (show u4.heap.size < (u4.alloc (.cells z36.toArray 23)).heap.size by simp)
          have HLp := Lib.hid (show p < (u4.alloc (.cells z36.toArray 23)).heap.size by have h1 := HLp.out; have h2 := HLq.out; omega)
          have HLs := Lib.hid (show s < (u4.alloc (.cells z36.toArray 23)).heap.size by have h1 := HLs.out; have h2 := HLq.out; omega)
          generalize hgw : u4.alloc (.cells z36.toArray 23) = u5 at HB HGp HGs HGq HO HLp HLs HLq ⊢
          clear hgw
          generalize hgw : u4.heap.size = q at HGq HTq HLq HXpq HXsq HNq ⊢
          clear hgw
          try simp only [Act.put, List.getElem_toArray, List.getElem_cons_succ, List.getElem_cons_zero, List.setIfInBounds_toArray, List.set_cons_zero, List.set_cons_succ]
          refine reg_step hR 5 (by kernel_rfl) rfl fun K hK => ?_
          try simp only [Act.put, List.getElem_toArray, List.getElem_cons_succ, List.getElem_cons_zero, List.setIfInBounds_toArray, List.set_cons_zero, List.set_cons_succ]
          rw [if_pos (by rfl)]
          try clear HRV
          go_simp
          refine (HRead.out u5 _ _ (rd_own HO.out (by rw [List.length_append, HLB.out]; rfl))).mono ?_; rintro e u6 ⟨A22, n22, c22, rfl, ho, hb⟩
          refine hK.out _ _ (show Below _ _ _ from hb.mono HB.out.size) ?_
          clear hK K
          have HGp := Lib.hid (HGp.out.keep hb)
          have HGs := Lib.hid (HGs.out.keep hb)
          have HGq := Lib.hid (HGq.out.keep hb)
          have HNp := Lib.hid (show Value.ownBlock (.slice A22 n22 c22) ≠ some p from fun e => by have h1 := (World.ownsRow.lt ho _ e).1; have h2 := HLp.out; omega)
          have HNs := Lib.hid (show Value.ownBlock (.slice A22 n22 c22) ≠ some s from fun e => by have h1 := (World.ownsRow.lt ho _ e).1; have h2 := HLs.out; omega)
          have HNq := Lib.hid (show Value.ownBlock (.slice A22 n22 c22) ≠ some q from fun e => by have h1 := (World.ownsRow.lt ho _ e).1; have h2 := HLq.out; omega)
          have HO := Lib.hid (Ow.lower ho HB.out.size)
          clear ho
          have HB := Lib.hid (HB.out.trans (hb.mono HB.out.size))
          clear hb
          have HLp := Lib.hid (show p < u6.heap.size from HGp.out.lt)
          have HLs := Lib.hid (show s < u6.heap.size from HGs.out.lt)
          have HLq := Lib.hid (show q < u6.heap.size from HGq.out.lt)
          try simp only [Act.put, List.getElem_toArray, List.getElem_cons_succ, List.getElem_cons_zero, List.setIfInBounds_toArray, List.set_cons_zero, List.set_cons_succ]
          refine reg_take (v := .tuple #[.agg #[.int .u8 9, .slice A22 n22 c22], .int .i64 12, .agg (cs8 N).toArray, .int .i64 0]) hR 6 rfl (by kernel_rfl) (by kernel_rfl) (by kernel_rfl) (fun _ _ _ h => by cases h.1) (by rfl) ?_ ?_
          · intro W hW; go_simp; try with_reducible rfl
          try simp only [Act.put, List.getElem_toArray, List.getElem_cons_succ, List.getElem_cons_zero, List.setIfInBounds_toArray, List.set_cons_zero, List.set_cons_succ]
          refine reg_take (v := .agg #[.int .u8 9, .slice A22 n22 c22]) hR 7 rfl (by kernel_rfl) (by kernel_rfl) (by kernel_rfl) (fun _ _ _ h => by cases h.1) (by rfl) ?_ ?_
          · intro W hW; go_simp; try with_reducible rfl
          try simp only [Act.put, List.getElem_toArray, List.getElem_cons_succ, List.getElem_cons_zero, List.setIfInBounds_toArray, List.set_cons_zero, List.set_cons_succ]
          refine reg_take (v := .int .i64 12) hR 8 rfl (by kernel_rfl) (by kernel_rfl) (by kernel_rfl) (fun _ _ _ h => by cases h.1) (by rfl) ?_ ?_
          · intro W hW; go_simp; try with_reducible rfl
          try simp only [Act.put, List.getElem_toArray, List.getElem_cons_succ, List.getElem_cons_zero, List.setIfInBounds_toArray, List.set_cons_zero, List.set_cons_succ]
          refine reg_take (v := .agg (cs8 N).toArray) hR 9 rfl (by kernel_rfl) (by kernel_rfl) (by kernel_rfl) (fun _ _ _ h => by cases h.1) (by rfl) ?_ ?_
          · intro W hW; go_simp; try with_reducible rfl
          try simp only [Act.put, List.getElem_toArray, List.getElem_cons_succ, List.getElem_cons_zero, List.setIfInBounds_toArray, List.set_cons_zero, List.set_cons_succ]
          refine reg_take (v := .int .i64 0) hR 10 rfl (by kernel_rfl) (by kernel_rfl) (by kernel_rfl) (fun _ _ _ h => by cases h.1) (by rfl) ?_ ?_
          · intro W hW; go_simp; try with_reducible rfl
          try simp only [Act.put, List.getElem_toArray, List.getElem_cons_succ, List.getElem_cons_zero, List.setIfInBounds_toArray, List.set_cons_zero, List.set_cons_succ]
          refine reg_step hR 13 (by kernel_rfl) rfl fun K hK => ?_
          try simp only [Act.put, List.getElem_toArray, List.getElem_cons_succ, List.getElem_cons_zero, List.setIfInBounds_toArray, List.set_cons_zero, List.set_cons_succ]
          rw [if_pos (by rfl)]
          refine wp_store_bk 31 _ _ rfl p rfl ([.int .u8 9, .slice A22 n22 c22] : List Value) z31 rfl HGp.out info31 rfl (rec_all _ _ _ _) ?_
          refine hK.out _ _ (below_setRow (Below.refl _ _) HTp.out _) ?_
          clear hK K
          have HGp := Lib.hid (HGp.out.setRow ([.int .u8 9, .slice A22 n22 c22] : List Value))
          have HGs := Lib.hid (HGs.out.other (show s ≠ p from HXps.out.symm) (([.int .u8 9, .slice A22 n22 c22] : List Value)).toArray)
          have HGq := Lib.hid (HGq.out.other (show q ≠ p from HXpq.out.symm) (([.int .u8 9, .slice A22 n22 c22] : List Value)).toArray)
          have HO := Lib.hid (World.ownsRow.kept HO.out (grown_setRow u6 p (([.int .u8 9, .slice A22 n22 c22] : List Value)).toArray) (.inr HNp.out))
          have HB := Lib.hid (below_setRow HB.out HTp.out (([.int .u8 9, .slice A22 n22 c22] : List Value)).toArray)
          generalize hgw : u6.setRow p (([.int .u8 9, .slice A22 n22 c22] : List Value)).toArray = u7 at HB HGp HGs HGq HO ⊢
          clear hgw
          try simp only [Act.put, List.getElem_toArray, List.getElem_cons_succ, List.getElem_cons_zero, List.setIfInBounds_toArray, List.set_cons_zero, List.set_cons_succ]
          refine reg_take (v := .int .i64 12) hR 14 rfl (by kernel_rfl) (by kernel_rfl) (by kernel_rfl) (fun _ _ _ h => by cases h.1) (by rfl) ?_ ?_
          · intro W hW; go_simp; try with_reducible rfl
          try simp only [Act.put, List.getElem_toArray, List.getElem_cons_succ, List.getElem_cons_zero, List.setIfInBounds_toArray, List.set_cons_zero, List.set_cons_succ]
          refine reg_step hR 15 (by kernel_rfl) rfl fun K hK => ?_
          try simp only [Act.put, List.getElem_toArray, List.getElem_cons_succ, List.getElem_cons_zero, List.setIfInBounds_toArray, List.set_cons_zero, List.set_cons_succ]
          rw [if_pos (by rfl)]
          refine wp_store_bk 23 _ _ rfl q rfl (cs8 N) z36 rfl HGq.out (by rw [HN8.out]; exact info36) (by rw [HN8.out]; exact len_z36) (cs8_all _) ?_
          refine hK.out _ _ (below_setRow (Below.refl _ _) HTq.out _) ?_
          clear hK K
          have HGq := Lib.hid (HGq.out.setRow (cs8 N))
          have HGp := Lib.hid (HGp.out.other (show p ≠ q from HXpq.out) ((cs8 N)).toArray)
          have HGs := Lib.hid (HGs.out.other (show s ≠ q from HXsq.out) ((cs8 N)).toArray)
          have HO := Lib.hid (World.ownsRow.kept HO.out (grown_setRow u7 q ((cs8 N)).toArray) (.inr HNq.out))
          have HB := Lib.hid (below_setRow HB.out HTq.out ((cs8 N)).toArray)
          generalize hgw : u7.setRow q ((cs8 N)).toArray = u8 at HB HGp HGs HGq HO ⊢
          clear hgw
          try simp only [Act.put, List.getElem_toArray, List.getElem_cons_succ, List.getElem_cons_zero, List.setIfInBounds_toArray, List.set_cons_zero, List.set_cons_succ]
          refine reg_take (v := .int .i64 0) hR 16 rfl (by kernel_rfl) (by kernel_rfl) (by kernel_rfl) (fun _ _ _ h => by cases h.1) (by rfl) ?_ ?_
          · intro W hW; go_simp; try with_reducible rfl
          try simp only [Act.put, List.getElem_toArray, List.getElem_cons_succ, List.getElem_cons_zero, List.setIfInBounds_toArray, List.set_cons_zero, List.set_cons_succ]
          refine reg_done (by kernel_rfl) ?_ _
          refine ⟨rfl, p, q, s, v29, A31, c31, A22, n22, c22, ?_, HTp, HTq, HXpq, HGp, HGq, HO, HB⟩
          simp only [frame3, puts, List.foldl_cons, List.foldl_nil, Act.put, List.getElem_toArray, List.getElem_cons_succ, List.getElem_cons_zero, List.setIfInBounds_toArray, List.set_cons_zero, List.set_cons_succ]
      · refine ⟨_, rfl, fun K hK => ?_⟩
        try simp only [Act.put, List.getElem_toArray, List.getElem_cons_succ, List.getElem_cons_zero, List.setIfInBounds_toArray, List.set_cons_zero, List.set_cons_succ]
        rw [if_pos (by rfl)]
        refine wp_alloc_z 23 rfl z36 zero36 ?_
        refine hK.out _ _ ((Below.refl _ _).alloc HB.out.size _) ?_
        clear hK K
        have HGq := Lib.hid (Bk.new u3 z36 23)
        have HXpq := Lib.hid (show p ≠ u3.heap.size from by have h1 := HGp.out.lt; omega)
        have HGp := Lib.hid (HGp.out.old (.cells z36.toArray 23))
        have HXsq := Lib.hid (show s ≠ u3.heap.size from by have h1 := HGs.out.lt; omega)
        have HGs := Lib.hid (HGs.out.old (.cells z36.toArray 23))
        have HNq := Lib.hid (show Value.ownBlock (v29) ≠ some u3.heap.size from fun e => by have h1 := (World.ownsRow.lt HO.out _ e).2; omega)
        have HO := Lib.hid (Ow.alloc HO.out (.cells z36.toArray 23))
        have HTq := Lib.hid (show w5.heap.size ≤ u3.heap.size from HB.out.size)
        have HB := Lib.hid (HB.out.alloc HB.out.size (.cells z36.toArray 23))
        have HLq := Lib.hid (show u3.heap.size < (u3.alloc (.cells z36.toArray 23)).heap.size by simp)
        have HLp := Lib.hid (show p < (u3.alloc (.cells z36.toArray 23)).heap.size by have h1 := HLp.out; have h2 := HLq.out; omega)
        have HLs := Lib.hid (show s < (u3.alloc (.cells z36.toArray 23)).heap.size by have h1 := HLs.out; have h2 := HLq.out; omega)
        generalize hgw : u3.alloc (.cells z36.toArray 23) = u4 at HB HGp HGs HGq HO HLp HLs HLq ⊢
        clear hgw
        generalize hgw : u3.heap.size = q at HGq HTq HLq HXpq HXsq HNq ⊢
        clear hgw
        try simp only [Act.put, List.getElem_toArray, List.getElem_cons_succ, List.getElem_cons_zero, List.setIfInBounds_toArray, List.set_cons_zero, List.set_cons_succ]
        refine reg_step hR 4 (by kernel_rfl) rfl fun K hK => ?_
        try simp only [Act.put, List.getElem_toArray, List.getElem_cons_succ, List.getElem_cons_zero, List.setIfInBounds_toArray, List.set_cons_zero, List.set_cons_succ]
        rw [if_pos (by rfl)]
        refine wp_app2 _ _ rfl rfl HO.out rfl (rd7 HGs.out) (by rw [HLB.out]; omega) HB.out.size ?_
        intro v31 u5 ho hg hv
        refine hK.out _ _ (show Below _ _ _ from ⟨hg.os, hg.tape, hg.output, hg.size, fun i hi => hg.block i (Nat.lt_of_lt_of_le hi HB.out.size) (fun e => by have h1 := (World.ownsRow.lt HO.out _ e.symm).1; omega)⟩) ?_
        clear hK K
        have HB := Lib.hid (HB.out.trans (show Below w5.heap.size u4 u5 from ⟨hg.os, hg.tape, hg.output, hg.size, fun i hi => hg.block i (Nat.lt_of_lt_of_le hi HB.out.size) (fun e => by have h1 := (World.ownsRow.lt HO.out _ e.symm).1; omega)⟩))
        have HN1p := Lib.hid (own_ne hv HNp.out HGp.out.lt)
        have HGp := Lib.hid (Bk.grow HGp.out hg HNp.out)
        have HLp := Lib.hid (show p < u5.heap.size from HGp.out.lt)
        have HN1s := Lib.hid (own_ne hv HNs.out HGs.out.lt)
        have HGs := Lib.hid (Bk.grow HGs.out hg HNs.out)
        have HLs := Lib.hid (show s < u5.heap.size from HGs.out.lt)
        have HN1q := Lib.hid (own_ne hv HNq.out HGq.out.lt)
        have HGq := Lib.hid (Bk.grow HGq.out hg HNq.out)
        have HLq := Lib.hid (show q < u5.heap.size from HGq.out.lt)
        obtain ⟨A31, c31, ev, -⟩ := ho.rdN (n := 13) (by rw [List.length_append, HLB.out]; rfl)
        subst ev
        have HO := Lib.hid ho
        clear ho hg hv
        have HNp := HN1p
        clear HN1p
        have HNs := HN1s
        clear HN1s
        have HNq := HN1q
        clear HN1q
        have HRV := Lib.hid (HO.out.rdN (n := 13) (by rw [List.length_append, HLB.out]; rfl))
        try simp only [Act.put, List.getElem_toArray, List.getElem_cons_succ, List.getElem_cons_zero, List.setIfInBounds_toArray, List.set_cons_zero, List.set_cons_succ]
        refine reg_step hR 5 (by kernel_rfl) rfl fun K hK => ?_
        try simp only [Act.put, List.getElem_toArray, List.getElem_cons_succ, List.getElem_cons_zero, List.setIfInBounds_toArray, List.set_cons_zero, List.set_cons_succ]
        rw [if_pos (by rfl)]
        try clear HRV
        go_simp
        refine (HRead.out u5 _ _ (rd_own HO.out (by rw [List.length_append, HLB.out]; rfl))).mono ?_; rintro e u6 ⟨A22, n22, c22, rfl, ho, hb⟩
        refine hK.out _ _ (show Below _ _ _ from hb.mono HB.out.size) ?_
        clear hK K
        have HGp := Lib.hid (HGp.out.keep hb)
        have HGs := Lib.hid (HGs.out.keep hb)
        have HGq := Lib.hid (HGq.out.keep hb)
        have HNp := Lib.hid (show Value.ownBlock (.slice A22 n22 c22) ≠ some p from fun e => by have h1 := (World.ownsRow.lt ho _ e).1; have h2 := HLp.out; omega)
        have HNs := Lib.hid (show Value.ownBlock (.slice A22 n22 c22) ≠ some s from fun e => by have h1 := (World.ownsRow.lt ho _ e).1; have h2 := HLs.out; omega)
        have HNq := Lib.hid (show Value.ownBlock (.slice A22 n22 c22) ≠ some q from fun e => by have h1 := (World.ownsRow.lt ho _ e).1; have h2 := HLq.out; omega)
        have HO := Lib.hid (Ow.lower ho HB.out.size)
        clear ho
        have HB := Lib.hid (HB.out.trans (hb.mono HB.out.size))
        clear hb
        have HLp := Lib.hid (show p < u6.heap.size from HGp.out.lt)
        have HLs := Lib.hid (show s < u6.heap.size from HGs.out.lt)
        have HLq := Lib.hid (show q < u6.heap.size from HGq.out.lt)
        try simp only [Act.put, List.getElem_toArray, List.getElem_cons_succ, List.getElem_cons_zero, List.setIfInBounds_toArray, List.set_cons_zero, List.set_cons_succ]
        refine reg_take (v := .tuple #[.agg #[.int .u8 9, .slice A22 n22 c22], .int .i64 12, .agg (cs8 N).toArray, .int .i64 0]) hR 6 rfl (by kernel_rfl) (by kernel_rfl) (by kernel_rfl) (fun _ _ _ h => by cases h.1) (by rfl) ?_ ?_
        · intro W hW; go_simp; try with_reducible rfl
        try simp only [Act.put, List.getElem_toArray, List.getElem_cons_succ, List.getElem_cons_zero, List.setIfInBounds_toArray, List.set_cons_zero, List.set_cons_succ]
        refine reg_take (v := .agg #[.int .u8 9, .slice A22 n22 c22]) hR 7 rfl (by kernel_rfl) (by kernel_rfl) (by kernel_rfl) (fun _ _ _ h => by cases h.1) (by rfl) ?_ ?_
        · intro W hW; go_simp; try with_reducible rfl
        try simp only [Act.put, List.getElem_toArray, List.getElem_cons_succ, List.getElem_cons_zero, List.setIfInBounds_toArray, List.set_cons_zero, List.set_cons_succ]
        refine reg_take (v := .int .i64 12) hR 8 rfl (by kernel_rfl) (by kernel_rfl) (by kernel_rfl) (fun _ _ _ h => by cases h.1) (by rfl) ?_ ?_
        · intro W hW; go_simp; try with_reducible rfl
        try simp only [Act.put, List.getElem_toArray, List.getElem_cons_succ, List.getElem_cons_zero, List.setIfInBounds_toArray, List.set_cons_zero, List.set_cons_succ]
        refine reg_take (v := .agg (cs8 N).toArray) hR 9 rfl (by kernel_rfl) (by kernel_rfl) (by kernel_rfl) (fun _ _ _ h => by cases h.1) (by rfl) ?_ ?_
        · intro W hW; go_simp; try with_reducible rfl
        try simp only [Act.put, List.getElem_toArray, List.getElem_cons_succ, List.getElem_cons_zero, List.setIfInBounds_toArray, List.set_cons_zero, List.set_cons_succ]
        refine reg_take (v := .int .i64 0) hR 10 rfl (by kernel_rfl) (by kernel_rfl) (by kernel_rfl) (fun _ _ _ h => by cases h.1) (by rfl) ?_ ?_
        · intro W hW; go_simp; try with_reducible rfl
        try simp only [Act.put, List.getElem_toArray, List.getElem_cons_succ, List.getElem_cons_zero, List.setIfInBounds_toArray, List.set_cons_zero, List.set_cons_succ]
        refine reg_step hR 13 (by kernel_rfl) rfl fun K hK => ?_
        try simp only [Act.put, List.getElem_toArray, List.getElem_cons_succ, List.getElem_cons_zero, List.setIfInBounds_toArray, List.set_cons_zero, List.set_cons_succ]
        rw [if_pos (by rfl)]
        refine wp_store_bk 31 _ _ rfl p rfl ([.int .u8 9, .slice A22 n22 c22] : List Value) z31 rfl HGp.out info31 rfl (rec_all _ _ _ _) ?_
        refine hK.out _ _ (below_setRow (Below.refl _ _) HTp.out _) ?_
        clear hK K
        have HGp := Lib.hid (HGp.out.setRow ([.int .u8 9, .slice A22 n22 c22] : List Value))
        have HGs := Lib.hid (HGs.out.other (show s ≠ p from HXps.out.symm) (([.int .u8 9, .slice A22 n22 c22] : List Value)).toArray)
        have HGq := Lib.hid (HGq.out.other (show q ≠ p from HXpq.out.symm) (([.int .u8 9, .slice A22 n22 c22] : List Value)).toArray)
        have HO := Lib.hid (World.ownsRow.kept HO.out (grown_setRow u6 p (([.int .u8 9, .slice A22 n22 c22] : List Value)).toArray) (.inr HNp.out))
        have HB := Lib.hid (below_setRow HB.out HTp.out (([.int .u8 9, .slice A22 n22 c22] : List Value)).toArray)
        generalize hgw : u6.setRow p (([.int .u8 9, .slice A22 n22 c22] : List Value)).toArray = u7 at HB HGp HGs HGq HO ⊢
        clear hgw
        try simp only [Act.put, List.getElem_toArray, List.getElem_cons_succ, List.getElem_cons_zero, List.setIfInBounds_toArray, List.set_cons_zero, List.set_cons_succ]
        refine reg_take (v := .int .i64 12) hR 14 rfl (by kernel_rfl) (by kernel_rfl) (by kernel_rfl) (fun _ _ _ h => by cases h.1) (by rfl) ?_ ?_
        · intro W hW; go_simp; try with_reducible rfl
        try simp only [Act.put, List.getElem_toArray, List.getElem_cons_succ, List.getElem_cons_zero, List.setIfInBounds_toArray, List.set_cons_zero, List.set_cons_succ]
        refine reg_step hR 15 (by kernel_rfl) rfl fun K hK => ?_
        try simp only [Act.put, List.getElem_toArray, List.getElem_cons_succ, List.getElem_cons_zero, List.setIfInBounds_toArray, List.set_cons_zero, List.set_cons_succ]
        rw [if_pos (by rfl)]
        refine wp_store_bk 23 _ _ rfl q rfl (cs8 N) z36 rfl HGq.out (by rw [HN8.out]; exact info36) (by rw [HN8.out]; exact len_z36) (cs8_all _) ?_
        refine hK.out _ _ (below_setRow (Below.refl _ _) HTq.out _) ?_
        clear hK K
        have HGq := Lib.hid (HGq.out.setRow (cs8 N))
        have HGp := Lib.hid (HGp.out.other (show p ≠ q from HXpq.out) ((cs8 N)).toArray)
        have HGs := Lib.hid (HGs.out.other (show s ≠ q from HXsq.out) ((cs8 N)).toArray)
        have HO := Lib.hid (World.ownsRow.kept HO.out (grown_setRow u7 q ((cs8 N)).toArray) (.inr HNq.out))
        have HB := Lib.hid (below_setRow HB.out HTq.out ((cs8 N)).toArray)
        generalize hgw : u7.setRow q ((cs8 N)).toArray = u8 at HB HGp HGs HGq HO ⊢
        clear hgw
        try simp only [Act.put, List.getElem_toArray, List.getElem_cons_succ, List.getElem_cons_zero, List.setIfInBounds_toArray, List.set_cons_zero, List.set_cons_succ]
        refine reg_take (v := .int .i64 0) hR 16 rfl (by kernel_rfl) (by kernel_rfl) (by kernel_rfl) (fun _ _ _ h => by cases h.1) (by rfl) ?_ ?_
        · intro W hW; go_simp; try with_reducible rfl
        try simp only [Act.put, List.getElem_toArray, List.getElem_cons_succ, List.getElem_cons_zero, List.setIfInBounds_toArray, List.set_cons_zero, List.set_cons_succ]
        refine reg_done (by kernel_rfl) ?_ _
        refine ⟨rfl, p, q, s, v29, A31, c31, A22, n22, c22, ?_, HTp, HTq, HXpq, HGp, HGq, HO, HB⟩
        simp only [frame3, puts, List.foldl_cons, List.foldl_nil, Act.put, List.getElem_toArray, List.getElem_cons_succ, List.getElem_cons_zero, List.setIfInBounds_toArray, List.set_cons_zero, List.set_cons_succ]
    · refine ⟨_, rfl, fun K hK => ?_⟩
      try simp only [Act.put, List.getElem_toArray, List.getElem_cons_succ, List.getElem_cons_zero, List.setIfInBounds_toArray, List.set_cons_zero, List.set_cons_succ]
      rw [if_pos (by rfl)]
      refine wp_alloc_z 23 rfl z36 zero36 ?_
      refine hK.out _ _ ((Below.refl _ _).alloc HB.out.size _) ?_
      clear hK K
      have HGq := Lib.hid (Bk.new u2 z36 23)
      have HXpq := Lib.hid (show p ≠ u2.heap.size from by have h1 := HGp.out.lt; omega)
      have HGp := Lib.hid (HGp.out.old (.cells z36.toArray 23))
      have HNq := Lib.hid (show Value.ownBlock (v29) ≠ some u2.heap.size from fun e => by have h1 := (World.ownsRow.lt HO.out _ e).2; omega)
      have HO := Lib.hid (Ow.alloc HO.out (.cells z36.toArray 23))
      have HTq := Lib.hid (show w5.heap.size ≤ u2.heap.size from HB.out.size)
      have HB := Lib.hid (HB.out.alloc HB.out.size (.cells z36.toArray 23))
      have HLq := Lib.hid (show u2.heap.size < (u2.alloc (.cells z36.toArray 23)).heap.size by simp)
      have HLp := Lib.hid (show p < (u2.alloc (.cells z36.toArray 23)).heap.size by have h1 := HLp.out; have h2 := HLq.out; omega)
      generalize hgw : u2.alloc (.cells z36.toArray 23) = u3 at HB HGp HGq HO HLp HLq ⊢
      clear hgw
      generalize hgw : u2.heap.size = q at HGq HTq HLq HXpq HNq ⊢
      clear hgw
      try simp only [Act.put, List.getElem_toArray, List.getElem_cons_succ, List.getElem_cons_zero, List.setIfInBounds_toArray, List.set_cons_zero, List.set_cons_succ]
      refine reg_step hR 3 (by kernel_rfl) rfl fun K hK => ?_
      try simp only [Act.put, List.getElem_toArray, List.getElem_cons_succ, List.getElem_cons_zero, List.setIfInBounds_toArray, List.set_cons_zero, List.set_cons_succ]
      rw [if_pos (by rfl)]
      go_simp
      refine hK.out _ _ ((Below.refl _ _).alloc HB.out.size _) ?_
      clear hK K
      have HGs := Lib.hid (Bk.new u3 ([.int .u8 7] : List Value) 5)
      have HXps := Lib.hid (show p ≠ u3.heap.size from by have h1 := HGp.out.lt; omega)
      have HGp := Lib.hid (HGp.out.old (.cells ([.int .u8 7] : List Value).toArray 5))
      have HXqs := Lib.hid (show q ≠ u3.heap.size from by have h1 := HGq.out.lt; omega)
      have HGq := Lib.hid (HGq.out.old (.cells ([.int .u8 7] : List Value).toArray 5))
      have HNs := Lib.hid (show Value.ownBlock (v29) ≠ some u3.heap.size from fun e => by have h1 := (World.ownsRow.lt HO.out _ e).2; omega)
      have HO := Lib.hid (Ow.alloc HO.out (.cells ([.int .u8 7] : List Value).toArray 5))
      have HTs := Lib.hid (show w5.heap.size ≤ u3.heap.size from HB.out.size)
      have HB := Lib.hid (HB.out.alloc HB.out.size (.cells ([.int .u8 7] : List Value).toArray 5))
      have HLs := Lib.hid (show u3.heap.size < (u3.alloc (.cells ([.int .u8 7] : List Value).toArray 5)).heap.size by simp)
      have HLp := Lib.hid (show p < (u3.alloc (.cells ([.int .u8 7] : List Value).toArray 5)).heap.size by have h1 := HLp.out; have h2 := HLs.out; omega)
      have HLq := Lib.hid (show q < (u3.alloc (.cells ([.int .u8 7] : List Value).toArray 5)).heap.size by have h1 := HLq.out; have h2 := HLs.out; omega)
      generalize hgw : u3.alloc (.cells ([.int .u8 7] : List Value).toArray 5) = u4 at HB HGp HGq HGs HO HLp HLq HLs ⊢
      clear hgw
      generalize hgw : u3.heap.size = s at HGs HTs HLs HXps HXqs HNs ⊢
      clear hgw
      try simp only [Act.put, List.getElem_toArray, List.getElem_cons_succ, List.getElem_cons_zero, List.setIfInBounds_toArray, List.set_cons_zero, List.set_cons_succ]
      refine reg_step hR 4 (by kernel_rfl) rfl fun K hK => ?_
      try simp only [Act.put, List.getElem_toArray, List.getElem_cons_succ, List.getElem_cons_zero, List.setIfInBounds_toArray, List.set_cons_zero, List.set_cons_succ]
      rw [if_pos (by rfl)]
      refine wp_app2 _ _ rfl rfl HO.out rfl (rd7 HGs.out) (by rw [HLB.out]; omega) HB.out.size ?_
      intro v31 u5 ho hg hv
      refine hK.out _ _ (show Below _ _ _ from ⟨hg.os, hg.tape, hg.output, hg.size, fun i hi => hg.block i (Nat.lt_of_lt_of_le hi HB.out.size) (fun e => by have h1 := (World.ownsRow.lt HO.out _ e.symm).1; omega)⟩) ?_
      clear hK K
      have HB := Lib.hid (HB.out.trans (show Below w5.heap.size u4 u5 from ⟨hg.os, hg.tape, hg.output, hg.size, fun i hi => hg.block i (Nat.lt_of_lt_of_le hi HB.out.size) (fun e => by have h1 := (World.ownsRow.lt HO.out _ e.symm).1; omega)⟩))
      have HN1p := Lib.hid (own_ne hv HNp.out HGp.out.lt)
      have HGp := Lib.hid (Bk.grow HGp.out hg HNp.out)
      have HLp := Lib.hid (show p < u5.heap.size from HGp.out.lt)
      have HN1q := Lib.hid (own_ne hv HNq.out HGq.out.lt)
      have HGq := Lib.hid (Bk.grow HGq.out hg HNq.out)
      have HLq := Lib.hid (show q < u5.heap.size from HGq.out.lt)
      have HN1s := Lib.hid (own_ne hv HNs.out HGs.out.lt)
      have HGs := Lib.hid (Bk.grow HGs.out hg HNs.out)
      have HLs := Lib.hid (show s < u5.heap.size from HGs.out.lt)
      obtain ⟨A31, c31, ev, -⟩ := ho.rdN (n := 13) (by rw [List.length_append, HLB.out]; rfl)
      subst ev
      have HO := Lib.hid ho
      clear ho hg hv
      have HNp := HN1p
      clear HN1p
      have HNq := HN1q
      clear HN1q
      have HNs := HN1s
      clear HN1s
      have HRV := Lib.hid (HO.out.rdN (n := 13) (by rw [List.length_append, HLB.out]; rfl))
      try simp only [Act.put, List.getElem_toArray, List.getElem_cons_succ, List.getElem_cons_zero, List.setIfInBounds_toArray, List.set_cons_zero, List.set_cons_succ]
      refine reg_step hR 5 (by kernel_rfl) rfl fun K hK => ?_
      try simp only [Act.put, List.getElem_toArray, List.getElem_cons_succ, List.getElem_cons_zero, List.setIfInBounds_toArray, List.set_cons_zero, List.set_cons_succ]
      rw [if_pos (by rfl)]
      try clear HRV
      go_simp
      refine (HRead.out u5 _ _ (rd_own HO.out (by rw [List.length_append, HLB.out]; rfl))).mono ?_; rintro e u6 ⟨A22, n22, c22, rfl, ho, hb⟩
      refine hK.out _ _ (show Below _ _ _ from hb.mono HB.out.size) ?_
      clear hK K
      have HGp := Lib.hid (HGp.out.keep hb)
      have HGq := Lib.hid (HGq.out.keep hb)
      have HGs := Lib.hid (HGs.out.keep hb)
      have HNp := Lib.hid (show Value.ownBlock (.slice A22 n22 c22) ≠ some p from fun e => by have h1 := (World.ownsRow.lt ho _ e).1; have h2 := HLp.out; omega)
      have HNq := Lib.hid (show Value.ownBlock (.slice A22 n22 c22) ≠ some q from fun e => by have h1 := (World.ownsRow.lt ho _ e).1; have h2 := HLq.out; omega)
      have HNs := Lib.hid (show Value.ownBlock (.slice A22 n22 c22) ≠ some s from fun e => by have h1 := (World.ownsRow.lt ho _ e).1; have h2 := HLs.out; omega)
      have HO := Lib.hid (Ow.lower ho HB.out.size)
      clear ho
      have HB := Lib.hid (HB.out.trans (hb.mono HB.out.size))
      clear hb
      have HLp := Lib.hid (show p < u6.heap.size from HGp.out.lt)
      have HLq := Lib.hid (show q < u6.heap.size from HGq.out.lt)
      have HLs := Lib.hid (show s < u6.heap.size from HGs.out.lt)
      try simp only [Act.put, List.getElem_toArray, List.getElem_cons_succ, List.getElem_cons_zero, List.setIfInBounds_toArray, List.set_cons_zero, List.set_cons_succ]
      refine reg_take (v := .tuple #[.agg #[.int .u8 9, .slice A22 n22 c22], .int .i64 12, .agg (cs8 N).toArray, .int .i64 0]) hR 6 rfl (by kernel_rfl) (by kernel_rfl) (by kernel_rfl) (fun _ _ _ h => by cases h.1) (by rfl) ?_ ?_
      · intro W hW; go_simp; try with_reducible rfl
      try simp only [Act.put, List.getElem_toArray, List.getElem_cons_succ, List.getElem_cons_zero, List.setIfInBounds_toArray, List.set_cons_zero, List.set_cons_succ]
      refine reg_take (v := .agg #[.int .u8 9, .slice A22 n22 c22]) hR 7 rfl (by kernel_rfl) (by kernel_rfl) (by kernel_rfl) (fun _ _ _ h => by cases h.1) (by rfl) ?_ ?_
      · intro W hW; go_simp; try with_reducible rfl
      try simp only [Act.put, List.getElem_toArray, List.getElem_cons_succ, List.getElem_cons_zero, List.setIfInBounds_toArray, List.set_cons_zero, List.set_cons_succ]
      refine reg_take (v := .int .i64 12) hR 8 rfl (by kernel_rfl) (by kernel_rfl) (by kernel_rfl) (fun _ _ _ h => by cases h.1) (by rfl) ?_ ?_
      · intro W hW; go_simp; try with_reducible rfl
      try simp only [Act.put, List.getElem_toArray, List.getElem_cons_succ, List.getElem_cons_zero, List.setIfInBounds_toArray, List.set_cons_zero, List.set_cons_succ]
      refine reg_take (v := .agg (cs8 N).toArray) hR 9 rfl (by kernel_rfl) (by kernel_rfl) (by kernel_rfl) (fun _ _ _ h => by cases h.1) (by rfl) ?_ ?_
      · intro W hW; go_simp; try with_reducible rfl
      try simp only [Act.put, List.getElem_toArray, List.getElem_cons_succ, List.getElem_cons_zero, List.setIfInBounds_toArray, List.set_cons_zero, List.set_cons_succ]
      refine reg_take (v := .int .i64 0) hR 10 rfl (by kernel_rfl) (by kernel_rfl) (by kernel_rfl) (fun _ _ _ h => by cases h.1) (by rfl) ?_ ?_
      · intro W hW; go_simp; try with_reducible rfl
      try simp only [Act.put, List.getElem_toArray, List.getElem_cons_succ, List.getElem_cons_zero, List.setIfInBounds_toArray, List.set_cons_zero, List.set_cons_succ]
      refine reg_step hR 13 (by kernel_rfl) rfl fun K hK => ?_
      try simp only [Act.put, List.getElem_toArray, List.getElem_cons_succ, List.getElem_cons_zero, List.setIfInBounds_toArray, List.set_cons_zero, List.set_cons_succ]
      rw [if_pos (by rfl)]
      refine wp_store_bk 31 _ _ rfl p rfl ([.int .u8 9, .slice A22 n22 c22] : List Value) z31 rfl HGp.out info31 rfl (rec_all _ _ _ _) ?_
      refine hK.out _ _ (below_setRow (Below.refl _ _) HTp.out _) ?_
      clear hK K
      have HGp := Lib.hid (HGp.out.setRow ([.int .u8 9, .slice A22 n22 c22] : List Value))
      have HGq := Lib.hid (HGq.out.other (show q ≠ p from HXpq.out.symm) (([.int .u8 9, .slice A22 n22 c22] : List Value)).toArray)
      have HGs := Lib.hid (HGs.out.other (show s ≠ p from HXps.out.symm) (([.int .u8 9, .slice A22 n22 c22] : List Value)).toArray)
      have HO := Lib.hid (World.ownsRow.kept HO.out (grown_setRow u6 p (([.int .u8 9, .slice A22 n22 c22] : List Value)).toArray) (.inr HNp.out))
      have HB := Lib.hid (below_setRow HB.out HTp.out (([.int .u8 9, .slice A22 n22 c22] : List Value)).toArray)
      generalize hgw : u6.setRow p (([.int .u8 9, .slice A22 n22 c22] : List Value)).toArray = u7 at HB HGp HGq HGs HO ⊢
      clear hgw
      try simp only [Act.put, List.getElem_toArray, List.getElem_cons_succ, List.getElem_cons_zero, List.setIfInBounds_toArray, List.set_cons_zero, List.set_cons_succ]
      refine reg_take (v := .int .i64 12) hR 14 rfl (by kernel_rfl) (by kernel_rfl) (by kernel_rfl) (fun _ _ _ h => by cases h.1) (by rfl) ?_ ?_
      · intro W hW; go_simp; try with_reducible rfl
      try simp only [Act.put, List.getElem_toArray, List.getElem_cons_succ, List.getElem_cons_zero, List.setIfInBounds_toArray, List.set_cons_zero, List.set_cons_succ]
      refine reg_step hR 15 (by kernel_rfl) rfl fun K hK => ?_
      try simp only [Act.put, List.getElem_toArray, List.getElem_cons_succ, List.getElem_cons_zero, List.setIfInBounds_toArray, List.set_cons_zero, List.set_cons_succ]
      rw [if_pos (by rfl)]
      refine wp_store_bk 23 _ _ rfl q rfl (cs8 N) z36 rfl HGq.out (by rw [HN8.out]; exact info36) (by rw [HN8.out]; exact len_z36) (cs8_all _) ?_
      refine hK.out _ _ (below_setRow (Below.refl _ _) HTq.out _) ?_
      clear hK K
      have HGq := Lib.hid (HGq.out.setRow (cs8 N))
      have HGp := Lib.hid (HGp.out.other (show p ≠ q from HXpq.out) ((cs8 N)).toArray)
      have HGs := Lib.hid (HGs.out.other (show s ≠ q from HXqs.out.symm) ((cs8 N)).toArray)
      have HO := Lib.hid (World.ownsRow.kept HO.out (grown_setRow u7 q ((cs8 N)).toArray) (.inr HNq.out))
      have HB := Lib.hid (below_setRow HB.out HTq.out ((cs8 N)).toArray)
      generalize hgw : u7.setRow q ((cs8 N)).toArray = u8 at HB HGp HGq HGs HO ⊢
      clear hgw
      try simp only [Act.put, List.getElem_toArray, List.getElem_cons_succ, List.getElem_cons_zero, List.setIfInBounds_toArray, List.set_cons_zero, List.set_cons_succ]
      refine reg_take (v := .int .i64 0) hR 16 rfl (by kernel_rfl) (by kernel_rfl) (by kernel_rfl) (fun _ _ _ h => by cases h.1) (by rfl) ?_ ?_
      · intro W hW; go_simp; try with_reducible rfl
      try simp only [Act.put, List.getElem_toArray, List.getElem_cons_succ, List.getElem_cons_zero, List.setIfInBounds_toArray, List.set_cons_zero, List.set_cons_succ]
      refine reg_done (by kernel_rfl) ?_ _
      refine ⟨rfl, p, q, s, v29, A31, c31, A22, n22, c22, ?_, HTp, HTq, HXpq, HGp, HGq, HO, HB⟩
      simp only [frame3, puts, List.foldl_cons, List.foldl_nil, Act.put, List.getElem_toArray, List.getElem_cons_succ, List.getElem_cons_zero, List.setIfInBounds_toArray, List.set_cons_zero, List.set_cons_succ]
  · refine ⟨_, rfl, fun K hK => ?_⟩
    try simp only [Act.put, List.getElem_toArray, List.getElem_cons_succ, List.getElem_cons_zero, List.setIfInBounds_toArray, List.set_cons_zero, List.set_cons_succ]
    rw [if_pos (by rfl)]
    go_simp
    refine hK.out _ _ ((Below.refl _ _).alloc HB.out.size _) ?_
    clear hK K
    have HGs := Lib.hid (Bk.new u1 ([.int .u8 7] : List Value) 5)
    have HXps := Lib.hid (show p ≠ u1.heap.size from by have h1 := HGp.out.lt; omega)
    have HGp := Lib.hid (HGp.out.old (.cells ([.int .u8 7] : List Value).toArray 5))
    have HTs := Lib.hid (show w5.heap.size ≤ u1.heap.size from HB.out.size)
    have HB := Lib.hid (HB.out.alloc HB.out.size (.cells ([.int .u8 7] : List Value).toArray 5))
    have HLs := Lib.hid (show u1.heap.size < (u1.alloc (.cells ([.int .u8 7] : List Value).toArray 5)).heap.size by simp)
    have HLp := Lib.hid (show p < (u1.alloc (.cells ([.int .u8 7] : List Value).toArray 5)).heap.size by have h1 := HLp.out; have h2 := HLs.out; omega)
    generalize hgw : u1.alloc (.cells ([.int .u8 7] : List Value).toArray 5) = u2 at HB HGp HGs HLp HLs ⊢
    clear hgw
    generalize hgw : u1.heap.size = s at HGs HTs HLs HXps ⊢
    clear hgw
    try simp only [Act.put, List.getElem_toArray, List.getElem_cons_succ, List.getElem_cons_zero, List.setIfInBounds_toArray, List.set_cons_zero, List.set_cons_succ]
    refine reg_fork (rs := [2, 12]) hR (by kernel_rfl) (by simp) ?_
    intro i hi; simp only [List.mem_cons, List.not_mem_nil, or_false] at hi
    rcases hi with rfl | rfl
    · refine ⟨_, rfl, fun K hK => ?_⟩
      try simp only [Act.put, List.getElem_toArray, List.getElem_cons_succ, List.getElem_cons_zero, List.setIfInBounds_toArray, List.set_cons_zero, List.set_cons_succ]
      rw [if_pos (by rfl)]
      go_simp
      refine (Own_any u2 ((HRB.out.below HB.out).more HB.out.size) (by omega)).mono ?_; rintro e u3 ⟨v29, rfl, ho, hb⟩
      refine hK.out _ _ (show Below _ _ _ from hb.mono HB.out.size) ?_
      clear hK K
      have HGp := Lib.hid (HGp.out.keep hb)
      have HGs := Lib.hid (HGs.out.keep hb)
      have HNp := Lib.hid (show Value.ownBlock (v29) ≠ some p from fun e => by have h1 := (World.ownsRow.lt ho _ e).1; have h2 := HLp.out; omega)
      have HNs := Lib.hid (show Value.ownBlock (v29) ≠ some s from fun e => by have h1 := (World.ownsRow.lt ho _ e).1; have h2 := HLs.out; omega)
      have HO := Lib.hid (Ow.lower ho HB.out.size)
      clear ho
      have HB := Lib.hid (HB.out.trans (hb.mono HB.out.size))
      clear hb
      have HLp := Lib.hid (show p < u3.heap.size from HGp.out.lt)
      have HLs := Lib.hid (show s < u3.heap.size from HGs.out.lt)
      try simp only [Act.put, List.getElem_toArray, List.getElem_cons_succ, List.getElem_cons_zero, List.setIfInBounds_toArray, List.set_cons_zero, List.set_cons_succ]
      refine reg_fork (rs := [4, 12]) hR (by kernel_rfl) (by simp) ?_
      intro i hi; simp only [List.mem_cons, List.not_mem_nil, or_false] at hi
      rcases hi with rfl | rfl
      · refine ⟨_, rfl, fun K hK => ?_⟩
        try simp only [Act.put, List.getElem_toArray, List.getElem_cons_succ, List.getElem_cons_zero, List.setIfInBounds_toArray, List.set_cons_zero, List.set_cons_succ]
        rw [if_pos (by rfl)]
        refine wp_app2 _ _ rfl rfl HO.out rfl (rd7 HGs.out) (by rw [HLB.out]; omega) HB.out.size ?_
        intro v31 u4 ho hg hv
        refine hK.out _ _ (show Below _ _ _ from ⟨hg.os, hg.tape, hg.output, hg.size, fun i hi => hg.block i (Nat.lt_of_lt_of_le hi HB.out.size) (fun e => by have h1 := (World.ownsRow.lt HO.out _ e.symm).1; omega)⟩) ?_
        clear hK K
        have HB := Lib.hid (HB.out.trans (show Below w5.heap.size u3 u4 from ⟨hg.os, hg.tape, hg.output, hg.size, fun i hi => hg.block i (Nat.lt_of_lt_of_le hi HB.out.size) (fun e => by have h1 := (World.ownsRow.lt HO.out _ e.symm).1; omega)⟩))
        have HN1p := Lib.hid (own_ne hv HNp.out HGp.out.lt)
        have HGp := Lib.hid (Bk.grow HGp.out hg HNp.out)
        have HLp := Lib.hid (show p < u4.heap.size from HGp.out.lt)
        have HN1s := Lib.hid (own_ne hv HNs.out HGs.out.lt)
        have HGs := Lib.hid (Bk.grow HGs.out hg HNs.out)
        have HLs := Lib.hid (show s < u4.heap.size from HGs.out.lt)
        obtain ⟨A31, c31, ev, -⟩ := ho.rdN (n := 13) (by rw [List.length_append, HLB.out]; rfl)
        subst ev
        have HO := Lib.hid ho
        clear ho hg hv
        have HNp := HN1p
        clear HN1p
        have HNs := HN1s
        clear HN1s
        have HRV := Lib.hid (HO.out.rdN (n := 13) (by rw [List.length_append, HLB.out]; rfl))
        try simp only [Act.put, List.getElem_toArray, List.getElem_cons_succ, List.getElem_cons_zero, List.setIfInBounds_toArray, List.set_cons_zero, List.set_cons_succ]
        refine reg_fork (rs := [5, 12]) hR (by kernel_rfl) (by simp) ?_
        intro i hi; simp only [List.mem_cons, List.not_mem_nil, or_false] at hi
        rcases hi with rfl | rfl
        · refine ⟨_, rfl, fun K hK => ?_⟩
          try simp only [Act.put, List.getElem_toArray, List.getElem_cons_succ, List.getElem_cons_zero, List.setIfInBounds_toArray, List.set_cons_zero, List.set_cons_succ]
          rw [if_pos (by rfl)]
          try clear HRV
          go_simp
          refine (HRead.out u4 _ _ (rd_own HO.out (by rw [List.length_append, HLB.out]; rfl))).mono ?_; rintro e u5 ⟨A22, n22, c22, rfl, ho, hb⟩
          refine hK.out _ _ (show Below _ _ _ from hb.mono HB.out.size) ?_
          clear hK K
          have HGp := Lib.hid (HGp.out.keep hb)
          have HGs := Lib.hid (HGs.out.keep hb)
          have HNp := Lib.hid (show Value.ownBlock (.slice A22 n22 c22) ≠ some p from fun e => by have h1 := (World.ownsRow.lt ho _ e).1; have h2 := HLp.out; omega)
          have HNs := Lib.hid (show Value.ownBlock (.slice A22 n22 c22) ≠ some s from fun e => by have h1 := (World.ownsRow.lt ho _ e).1; have h2 := HLs.out; omega)
          have HO := Lib.hid (Ow.lower ho HB.out.size)
          clear ho
          have HB := Lib.hid (HB.out.trans (hb.mono HB.out.size))
          clear hb
          have HLp := Lib.hid (show p < u5.heap.size from HGp.out.lt)
          have HLs := Lib.hid (show s < u5.heap.size from HGs.out.lt)
          try simp only [Act.put, List.getElem_toArray, List.getElem_cons_succ, List.getElem_cons_zero, List.setIfInBounds_toArray, List.set_cons_zero, List.set_cons_succ]
          refine reg_take (v := .tuple #[.agg #[.int .u8 9, .slice A22 n22 c22], .int .i64 12, .agg (cs8 N).toArray, .int .i64 0]) hR 6 rfl (by kernel_rfl) (by kernel_rfl) (by kernel_rfl) (fun _ _ _ h => by cases h.1) (by rfl) ?_ ?_
          · intro W hW; go_simp; try with_reducible rfl
          try simp only [Act.put, List.getElem_toArray, List.getElem_cons_succ, List.getElem_cons_zero, List.setIfInBounds_toArray, List.set_cons_zero, List.set_cons_succ]
          refine reg_take (v := .agg #[.int .u8 9, .slice A22 n22 c22]) hR 7 rfl (by kernel_rfl) (by kernel_rfl) (by kernel_rfl) (fun _ _ _ h => by cases h.1) (by rfl) ?_ ?_
          · intro W hW; go_simp; try with_reducible rfl
          try simp only [Act.put, List.getElem_toArray, List.getElem_cons_succ, List.getElem_cons_zero, List.setIfInBounds_toArray, List.set_cons_zero, List.set_cons_succ]
          refine reg_take (v := .int .i64 12) hR 8 rfl (by kernel_rfl) (by kernel_rfl) (by kernel_rfl) (fun _ _ _ h => by cases h.1) (by rfl) ?_ ?_
          · intro W hW; go_simp; try with_reducible rfl
          try simp only [Act.put, List.getElem_toArray, List.getElem_cons_succ, List.getElem_cons_zero, List.setIfInBounds_toArray, List.set_cons_zero, List.set_cons_succ]
          refine reg_take (v := .agg (cs8 N).toArray) hR 9 rfl (by kernel_rfl) (by kernel_rfl) (by kernel_rfl) (fun _ _ _ h => by cases h.1) (by rfl) ?_ ?_
          · intro W hW; go_simp; try with_reducible rfl
          try simp only [Act.put, List.getElem_toArray, List.getElem_cons_succ, List.getElem_cons_zero, List.setIfInBounds_toArray, List.set_cons_zero, List.set_cons_succ]
          refine reg_take (v := .int .i64 0) hR 10 rfl (by kernel_rfl) (by kernel_rfl) (by kernel_rfl) (fun _ _ _ h => by cases h.1) (by rfl) ?_ ?_
          · intro W hW; go_simp; try with_reducible rfl
          try simp only [Act.put, List.getElem_toArray, List.getElem_cons_succ, List.getElem_cons_zero, List.setIfInBounds_toArray, List.set_cons_zero, List.set_cons_succ]
          refine reg_step hR 12 (by kernel_rfl) rfl fun K hK => ?_
          try simp only [Act.put, List.getElem_toArray, List.getElem_cons_succ, List.getElem_cons_zero, List.setIfInBounds_toArray, List.set_cons_zero, List.set_cons_succ]
          rw [if_pos (by rfl)]
          refine wp_alloc_z 23 rfl z36 zero36 ?_
          refine hK.out _ _ ((Below.refl _ _).alloc HB.out.size _) ?_
          clear hK K
          have HGq := Lib.hid (Bk.new u5 z36 23)
          have HXpq := Lib.hid (show p ≠ u5.heap.size from by have h1 := HGp.out.lt; omega)
          have HGp := Lib.hid (HGp.out.old (.cells z36.toArray 23))
          have HXsq := Lib.hid (show s ≠ u5.heap.size from by have h1 := HGs.out.lt; omega)
          have HGs := Lib.hid (HGs.out.old (.cells z36.toArray 23))
          have HNq := Lib.hid (show Value.ownBlock (.slice A22 n22 c22) ≠ some u5.heap.size from fun e => by have h1 := (World.ownsRow.lt HO.out _ e).2; omega)
          have HO := Lib.hid (Ow.alloc HO.out (.cells z36.toArray 23))
          have HTq := Lib.hid (show w5.heap.size ≤ u5.heap.size from HB.out.size)
          have HB := Lib.hid (HB.out.alloc HB.out.size (.cells z36.toArray 23))
          have HLq := Lib.hid (show u5.heap.size < (u5.alloc (.cells z36.toArray 23)).heap.size by simp)
          have HLp := Lib.hid (show p < (u5.alloc (.cells z36.toArray 23)).heap.size by have h1 := HLp.out; have h2 := HLq.out; omega)
          have HLs := Lib.hid (show s < (u5.alloc (.cells z36.toArray 23)).heap.size by have h1 := HLs.out; have h2 := HLq.out; omega)
          generalize hgw : u5.alloc (.cells z36.toArray 23) = u6 at HB HGp HGs HGq HO HLp HLs HLq ⊢
          clear hgw
          generalize hgw : u5.heap.size = q at HGq HTq HLq HXpq HXsq HNq ⊢
          clear hgw
          try simp only [Act.put, List.getElem_toArray, List.getElem_cons_succ, List.getElem_cons_zero, List.setIfInBounds_toArray, List.set_cons_zero, List.set_cons_succ]
          refine reg_step hR 13 (by kernel_rfl) rfl fun K hK => ?_
          try simp only [Act.put, List.getElem_toArray, List.getElem_cons_succ, List.getElem_cons_zero, List.setIfInBounds_toArray, List.set_cons_zero, List.set_cons_succ]
          rw [if_pos (by rfl)]
          refine wp_store_bk 31 _ _ rfl p rfl ([.int .u8 9, .slice A22 n22 c22] : List Value) z31 rfl HGp.out info31 rfl (rec_all _ _ _ _) ?_
          refine hK.out _ _ (below_setRow (Below.refl _ _) HTp.out _) ?_
          clear hK K
          have HGp := Lib.hid (HGp.out.setRow ([.int .u8 9, .slice A22 n22 c22] : List Value))
          have HGs := Lib.hid (HGs.out.other (show s ≠ p from HXps.out.symm) (([.int .u8 9, .slice A22 n22 c22] : List Value)).toArray)
          have HGq := Lib.hid (HGq.out.other (show q ≠ p from HXpq.out.symm) (([.int .u8 9, .slice A22 n22 c22] : List Value)).toArray)
          have HO := Lib.hid (World.ownsRow.kept HO.out (grown_setRow u6 p (([.int .u8 9, .slice A22 n22 c22] : List Value)).toArray) (.inr HNp.out))
          have HB := Lib.hid (below_setRow HB.out HTp.out (([.int .u8 9, .slice A22 n22 c22] : List Value)).toArray)
          generalize hgw : u6.setRow p (([.int .u8 9, .slice A22 n22 c22] : List Value)).toArray = u7 at HB HGp HGs HGq HO ⊢
          clear hgw
          try simp only [Act.put, List.getElem_toArray, List.getElem_cons_succ, List.getElem_cons_zero, List.setIfInBounds_toArray, List.set_cons_zero, List.set_cons_succ]
          refine reg_take (v := .int .i64 12) hR 14 rfl (by kernel_rfl) (by kernel_rfl) (by kernel_rfl) (fun _ _ _ h => by cases h.1) (by rfl) ?_ ?_
          · intro W hW; go_simp; try with_reducible rfl
          try simp only [Act.put, List.getElem_toArray, List.getElem_cons_succ, List.getElem_cons_zero, List.setIfInBounds_toArray, List.set_cons_zero, List.set_cons_succ]
          refine reg_step hR 15 (by kernel_rfl) rfl fun K hK => ?_
          try simp only [Act.put, List.getElem_toArray, List.getElem_cons_succ, List.getElem_cons_zero, List.setIfInBounds_toArray, List.set_cons_zero, List.set_cons_succ]
          rw [if_pos (by rfl)]
          refine wp_store_bk 23 _ _ rfl q rfl (cs8 N) z36 rfl HGq.out (by rw [HN8.out]; exact info36) (by rw [HN8.out]; exact len_z36) (cs8_all _) ?_
          refine hK.out _ _ (below_setRow (Below.refl _ _) HTq.out _) ?_
          clear hK K
          have HGq := Lib.hid (HGq.out.setRow (cs8 N))
          have HGp := Lib.hid (HGp.out.other (show p ≠ q from HXpq.out) ((cs8 N)).toArray)
          have HGs := Lib.hid (HGs.out.other (show s ≠ q from HXsq.out) ((cs8 N)).toArray)
          have HO := Lib.hid (World.ownsRow.kept HO.out (grown_setRow u7 q ((cs8 N)).toArray) (.inr HNq.out))
          have HB := Lib.hid (below_setRow HB.out HTq.out ((cs8 N)).toArray)
          generalize hgw : u7.setRow q ((cs8 N)).toArray = u8 at HB HGp HGs HGq HO ⊢
          clear hgw
          try simp only [Act.put, List.getElem_toArray, List.getElem_cons_succ, List.getElem_cons_zero, List.setIfInBounds_toArray, List.set_cons_zero, List.set_cons_succ]
          refine reg_take (v := .int .i64 0) hR 16 rfl (by kernel_rfl) (by kernel_rfl) (by kernel_rfl) (fun _ _ _ h => by cases h.1) (by rfl) ?_ ?_
          · intro W hW; go_simp; try with_reducible rfl
          try simp only [Act.put, List.getElem_toArray, List.getElem_cons_succ, List.getElem_cons_zero, List.setIfInBounds_toArray, List.set_cons_zero, List.set_cons_succ]
          refine reg_done (by kernel_rfl) ?_ _
          refine ⟨rfl, p, q, s, v29, A31, c31, A22, n22, c22, ?_, HTp, HTq, HXpq, HGp, HGq, HO, HB⟩
          simp only [frame3, puts, List.foldl_cons, List.foldl_nil, Act.put, List.getElem_toArray, List.getElem_cons_succ, List.getElem_cons_zero, List.setIfInBounds_toArray, List.set_cons_zero, List.set_cons_succ]
        · refine ⟨_, rfl, fun K hK => ?_⟩
          try simp only [Act.put, List.getElem_toArray, List.getElem_cons_succ, List.getElem_cons_zero, List.setIfInBounds_toArray, List.set_cons_zero, List.set_cons_succ]
          rw [if_pos (by rfl)]
          refine wp_alloc_z 23 rfl z36 zero36 ?_
          refine hK.out _ _ ((Below.refl _ _).alloc HB.out.size _) ?_
          clear hK K
          have HGq := Lib.hid (Bk.new u4 z36 23)
          have HXpq := Lib.hid (show p ≠ u4.heap.size from by have h1 := HGp.out.lt; omega)
          have HGp := Lib.hid (HGp.out.old (.cells z36.toArray 23))
          have HXsq := Lib.hid (show s ≠ u4.heap.size from by have h1 := HGs.out.lt; omega)
          have HGs := Lib.hid (HGs.out.old (.cells z36.toArray 23))
          have HNq := Lib.hid (show Value.ownBlock (.slice A31 13 c31) ≠ some u4.heap.size from fun e => by have h1 := (World.ownsRow.lt HO.out _ e).2; omega)
          have HO := Lib.hid (Ow.alloc HO.out (.cells z36.toArray 23))
          have HTq := Lib.hid (show w5.heap.size ≤ u4.heap.size from HB.out.size)
          have HB := Lib.hid (HB.out.alloc HB.out.size (.cells z36.toArray 23))
          have HLq := Lib.hid (show u4.heap.size < (u4.alloc (.cells z36.toArray 23)).heap.size by simp)
          have HLp := Lib.hid (show p < (u4.alloc (.cells z36.toArray 23)).heap.size by have h1 := HLp.out; have h2 := HLq.out; omega)
          have HLs := Lib.hid (show s < (u4.alloc (.cells z36.toArray 23)).heap.size by have h1 := HLs.out; have h2 := HLq.out; omega)
          generalize hgw : u4.alloc (.cells z36.toArray 23) = u5 at HB HGp HGs HGq HO HLp HLs HLq ⊢
          clear hgw
          generalize hgw : u4.heap.size = q at HGq HTq HLq HXpq HXsq HNq ⊢
          clear hgw
          try simp only [Act.put, List.getElem_toArray, List.getElem_cons_succ, List.getElem_cons_zero, List.setIfInBounds_toArray, List.set_cons_zero, List.set_cons_succ]
          refine reg_step hR 5 (by kernel_rfl) rfl fun K hK => ?_
          try simp only [Act.put, List.getElem_toArray, List.getElem_cons_succ, List.getElem_cons_zero, List.setIfInBounds_toArray, List.set_cons_zero, List.set_cons_succ]
          rw [if_pos (by rfl)]
          try clear HRV
          go_simp
          refine (HRead.out u5 _ _ (rd_own HO.out (by rw [List.length_append, HLB.out]; rfl))).mono ?_; rintro e u6 ⟨A22, n22, c22, rfl, ho, hb⟩
          refine hK.out _ _ (show Below _ _ _ from hb.mono HB.out.size) ?_
          clear hK K
          have HGp := Lib.hid (HGp.out.keep hb)
          have HGs := Lib.hid (HGs.out.keep hb)
          have HGq := Lib.hid (HGq.out.keep hb)
          have HNp := Lib.hid (show Value.ownBlock (.slice A22 n22 c22) ≠ some p from fun e => by have h1 := (World.ownsRow.lt ho _ e).1; have h2 := HLp.out; omega)
          have HNs := Lib.hid (show Value.ownBlock (.slice A22 n22 c22) ≠ some s from fun e => by have h1 := (World.ownsRow.lt ho _ e).1; have h2 := HLs.out; omega)
          have HNq := Lib.hid (show Value.ownBlock (.slice A22 n22 c22) ≠ some q from fun e => by have h1 := (World.ownsRow.lt ho _ e).1; have h2 := HLq.out; omega)
          have HO := Lib.hid (Ow.lower ho HB.out.size)
          clear ho
          have HB := Lib.hid (HB.out.trans (hb.mono HB.out.size))
          clear hb
          have HLp := Lib.hid (show p < u6.heap.size from HGp.out.lt)
          have HLs := Lib.hid (show s < u6.heap.size from HGs.out.lt)
          have HLq := Lib.hid (show q < u6.heap.size from HGq.out.lt)
          try simp only [Act.put, List.getElem_toArray, List.getElem_cons_succ, List.getElem_cons_zero, List.setIfInBounds_toArray, List.set_cons_zero, List.set_cons_succ]
          refine reg_take (v := .tuple #[.agg #[.int .u8 9, .slice A22 n22 c22], .int .i64 12, .agg (cs8 N).toArray, .int .i64 0]) hR 6 rfl (by kernel_rfl) (by kernel_rfl) (by kernel_rfl) (fun _ _ _ h => by cases h.1) (by rfl) ?_ ?_
          · intro W hW; go_simp; try with_reducible rfl
          try simp only [Act.put, List.getElem_toArray, List.getElem_cons_succ, List.getElem_cons_zero, List.setIfInBounds_toArray, List.set_cons_zero, List.set_cons_succ]
          refine reg_take (v := .agg #[.int .u8 9, .slice A22 n22 c22]) hR 7 rfl (by kernel_rfl) (by kernel_rfl) (by kernel_rfl) (fun _ _ _ h => by cases h.1) (by rfl) ?_ ?_
          · intro W hW; go_simp; try with_reducible rfl
          try simp only [Act.put, List.getElem_toArray, List.getElem_cons_succ, List.getElem_cons_zero, List.setIfInBounds_toArray, List.set_cons_zero, List.set_cons_succ]
          refine reg_take (v := .int .i64 12) hR 8 rfl (by kernel_rfl) (by kernel_rfl) (by kernel_rfl) (fun _ _ _ h => by cases h.1) (by rfl) ?_ ?_
          · intro W hW; go_simp; try with_reducible rfl
          try simp only [Act.put, List.getElem_toArray, List.getElem_cons_succ, List.getElem_cons_zero, List.setIfInBounds_toArray, List.set_cons_zero, List.set_cons_succ]
          refine reg_take (v := .agg (cs8 N).toArray) hR 9 rfl (by kernel_rfl) (by kernel_rfl) (by kernel_rfl) (fun _ _ _ h => by cases h.1) (by rfl) ?_ ?_
          · intro W hW; go_simp; try with_reducible rfl
          try simp only [Act.put, List.getElem_toArray, List.getElem_cons_succ, List.getElem_cons_zero, List.setIfInBounds_toArray, List.set_cons_zero, List.set_cons_succ]
          refine reg_take (v := .int .i64 0) hR 10 rfl (by kernel_rfl) (by kernel_rfl) (by kernel_rfl) (fun _ _ _ h => by cases h.1) (by rfl) ?_ ?_
          · intro W hW; go_simp; try with_reducible rfl
          try simp only [Act.put, List.getElem_toArray, List.getElem_cons_succ, List.getElem_cons_zero, List.setIfInBounds_toArray, List.set_cons_zero, List.set_cons_succ]
          refine reg_step hR 13 (by kernel_rfl) rfl fun K hK => ?_
          try simp only [Act.put, List.getElem_toArray, List.getElem_cons_succ, List.getElem_cons_zero, List.setIfInBounds_toArray, List.set_cons_zero, List.set_cons_succ]
          rw [if_pos (by rfl)]
          refine wp_store_bk 31 _ _ rfl p rfl ([.int .u8 9, .slice A22 n22 c22] : List Value) z31 rfl HGp.out info31 rfl (rec_all _ _ _ _) ?_
          refine hK.out _ _ (below_setRow (Below.refl _ _) HTp.out _) ?_
          clear hK K
          have HGp := Lib.hid (HGp.out.setRow ([.int .u8 9, .slice A22 n22 c22] : List Value))
          have HGs := Lib.hid (HGs.out.other (show s ≠ p from HXps.out.symm) (([.int .u8 9, .slice A22 n22 c22] : List Value)).toArray)
          have HGq := Lib.hid (HGq.out.other (show q ≠ p from HXpq.out.symm) (([.int .u8 9, .slice A22 n22 c22] : List Value)).toArray)
          have HO := Lib.hid (World.ownsRow.kept HO.out (grown_setRow u6 p (([.int .u8 9, .slice A22 n22 c22] : List Value)).toArray) (.inr HNp.out))
          have HB := Lib.hid (below_setRow HB.out HTp.out (([.int .u8 9, .slice A22 n22 c22] : List Value)).toArray)
          generalize hgw : u6.setRow p (([.int .u8 9, .slice A22 n22 c22] : List Value)).toArray = u7 at HB HGp HGs HGq HO ⊢
          clear hgw
          try simp only [Act.put, List.getElem_toArray, List.getElem_cons_succ, List.getElem_cons_zero, List.setIfInBounds_toArray, List.set_cons_zero, List.set_cons_succ]
          refine reg_take (v := .int .i64 12) hR 14 rfl (by kernel_rfl) (by kernel_rfl) (by kernel_rfl) (fun _ _ _ h => by cases h.1) (by rfl) ?_ ?_
          · intro W hW; go_simp; try with_reducible rfl
          try simp only [Act.put, List.getElem_toArray, List.getElem_cons_succ, List.getElem_cons_zero, List.setIfInBounds_toArray, List.set_cons_zero, List.set_cons_succ]
          refine reg_step hR 15 (by kernel_rfl) rfl fun K hK => ?_
          try simp only [Act.put, List.getElem_toArray, List.getElem_cons_succ, List.getElem_cons_zero, List.setIfInBounds_toArray, List.set_cons_zero, List.set_cons_succ]
          rw [if_pos (by rfl)]
          refine wp_store_bk 23 _ _ rfl q rfl (cs8 N) z36 rfl HGq.out (by rw [HN8.out]; exact info36) (by rw [HN8.out]; exact len_z36) (cs8_all _) ?_
          refine hK.out _ _ (below_setRow (Below.refl _ _) HTq.out _) ?_
          clear hK K
          have HGq := Lib.hid (HGq.out.setRow (cs8 N))
          have HGp := Lib.hid (HGp.out.other (show p ≠ q from HXpq.out) ((cs8 N)).toArray)
          have HGs := Lib.hid (HGs.out.other (show s ≠ q from HXsq.out) ((cs8 N)).toArray)
          have HO := Lib.hid (World.ownsRow.kept HO.out (grown_setRow u7 q ((cs8 N)).toArray) (.inr HNq.out))
          have HB := Lib.hid (below_setRow HB.out HTq.out ((cs8 N)).toArray)
          generalize hgw : u7.setRow q ((cs8 N)).toArray = u8 at HB HGp HGs HGq HO ⊢
          clear hgw
          try simp only [Act.put, List.getElem_toArray, List.getElem_cons_succ, List.getElem_cons_zero, List.setIfInBounds_toArray, List.set_cons_zero, List.set_cons_succ]
          refine reg_take (v := .int .i64 0) hR 16 rfl (by kernel_rfl) (by kernel_rfl) (by kernel_rfl) (fun _ _ _ h => by cases h.1) (by rfl) ?_ ?_
          · intro W hW; go_simp; try with_reducible rfl
          try simp only [Act.put, List.getElem_toArray, List.getElem_cons_succ, List.getElem_cons_zero, List.setIfInBounds_toArray, List.set_cons_zero, List.set_cons_succ]
          refine reg_done (by kernel_rfl) ?_ _
          refine ⟨rfl, p, q, s, v29, A31, c31, A22, n22, c22, ?_, HTp, HTq, HXpq, HGp, HGq, HO, HB⟩
          simp only [frame3, puts, List.foldl_cons, List.foldl_nil, Act.put, List.getElem_toArray, List.getElem_cons_succ, List.getElem_cons_zero, List.setIfInBounds_toArray, List.set_cons_zero, List.set_cons_succ]
      · refine ⟨_, rfl, fun K hK => ?_⟩
        try simp only [Act.put, List.getElem_toArray, List.getElem_cons_succ, List.getElem_cons_zero, List.setIfInBounds_toArray, List.set_cons_zero, List.set_cons_succ]
        rw [if_pos (by rfl)]
        refine wp_alloc_z 23 rfl z36 zero36 ?_
        refine hK.out _ _ ((Below.refl _ _).alloc HB.out.size _) ?_
        clear hK K
        have HGq := Lib.hid (Bk.new u3 z36 23)
        have HXpq := Lib.hid (show p ≠ u3.heap.size from by have h1 := HGp.out.lt; omega)
        have HGp := Lib.hid (HGp.out.old (.cells z36.toArray 23))
        have HXsq := Lib.hid (show s ≠ u3.heap.size from by have h1 := HGs.out.lt; omega)
        have HGs := Lib.hid (HGs.out.old (.cells z36.toArray 23))
        have HNq := Lib.hid (show Value.ownBlock (v29) ≠ some u3.heap.size from fun e => by have h1 := (World.ownsRow.lt HO.out _ e).2; omega)
        have HO := Lib.hid (Ow.alloc HO.out (.cells z36.toArray 23))
        have HTq := Lib.hid (show w5.heap.size ≤ u3.heap.size from HB.out.size)
        have HB := Lib.hid (HB.out.alloc HB.out.size (.cells z36.toArray 23))
        have HLq := Lib.hid (show u3.heap.size < (u3.alloc (.cells z36.toArray 23)).heap.size by simp)
        have HLp := Lib.hid (show p < (u3.alloc (.cells z36.toArray 23)).heap.size by have h1 := HLp.out; have h2 := HLq.out; omega)
        have HLs := Lib.hid (show s < (u3.alloc (.cells z36.toArray 23)).heap.size by have h1 := HLs.out; have h2 := HLq.out; omega)
        generalize hgw : u3.alloc (.cells z36.toArray 23) = u4 at HB HGp HGs HGq HO HLp HLs HLq ⊢
        clear hgw
        generalize hgw : u3.heap.size = q at HGq HTq HLq HXpq HXsq HNq ⊢
        clear hgw
        try simp only [Act.put, List.getElem_toArray, List.getElem_cons_succ, List.getElem_cons_zero, List.setIfInBounds_toArray, List.set_cons_zero, List.set_cons_succ]
        refine reg_step hR 4 (by kernel_rfl) rfl fun K hK => ?_
        try simp only [Act.put, List.getElem_toArray, List.getElem_cons_succ, List.getElem_cons_zero, List.setIfInBounds_toArray, List.set_cons_zero, List.set_cons_succ]
        rw [if_pos (by rfl)]
        refine wp_app2 _ _ rfl rfl HO.out rfl (rd7 HGs.out) (by rw [HLB.out]; omega) HB.out.size ?_
        intro v31 u5 ho hg hv
        refine hK.out _ _ (show Below _ _ _ from ⟨hg.os, hg.tape, hg.output, hg.size, fun i hi => hg.block i (Nat.lt_of_lt_of_le hi HB.out.size) (fun e => by have h1 := (World.ownsRow.lt HO.out _ e.symm).1; omega)⟩) ?_
        clear hK K
        have HB := Lib.hid (HB.out.trans (show Below w5.heap.size u4 u5 from ⟨hg.os, hg.tape, hg.output, hg.size, fun i hi => hg.block i (Nat.lt_of_lt_of_le hi HB.out.size) (fun e => by have h1 := (World.ownsRow.lt HO.out _ e.symm).1; omega)⟩))
        have HN1p := Lib.hid (own_ne hv HNp.out HGp.out.lt)
        have HGp := Lib.hid (Bk.grow HGp.out hg HNp.out)
        have HLp := Lib.hid (show p < u5.heap.size from HGp.out.lt)
        have HN1s := Lib.hid (own_ne hv HNs.out HGs.out.lt)
        have HGs := Lib.hid (Bk.grow HGs.out hg HNs.out)
        have HLs := Lib.hid (show s < u5.heap.size from HGs.out.lt)
        have HN1q := Lib.hid (own_ne hv HNq.out HGq.out.lt)
        have HGq := Lib.hid (Bk.grow HGq.out hg HNq.out)
        have HLq := Lib.hid (show q < u5.heap.size from HGq.out.lt)
        obtain ⟨A31, c31, ev, -⟩ := ho.rdN (n := 13) (by rw [List.length_append, HLB.out]; rfl)
        subst ev
        have HO := Lib.hid ho
        clear ho hg hv
        have HNp := HN1p
        clear HN1p
        have HNs := HN1s
        clear HN1s
        have HNq := HN1q
        clear HN1q
        have HRV := Lib.hid (HO.out.rdN (n := 13) (by rw [List.length_append, HLB.out]; rfl))
        try simp only [Act.put, List.getElem_toArray, List.getElem_cons_succ, List.getElem_cons_zero, List.setIfInBounds_toArray, List.set_cons_zero, List.set_cons_succ]
        refine reg_step hR 5 (by kernel_rfl) rfl fun K hK => ?_
        try simp only [Act.put, List.getElem_toArray, List.getElem_cons_succ, List.getElem_cons_zero, List.setIfInBounds_toArray, List.set_cons_zero, List.set_cons_succ]
        rw [if_pos (by rfl)]
        try clear HRV
        go_simp
        refine (HRead.out u5 _ _ (rd_own HO.out (by rw [List.length_append, HLB.out]; rfl))).mono ?_; rintro e u6 ⟨A22, n22, c22, rfl, ho, hb⟩
        refine hK.out _ _ (show Below _ _ _ from hb.mono HB.out.size) ?_
        clear hK K
        have HGp := Lib.hid (HGp.out.keep hb)
        have HGs := Lib.hid (HGs.out.keep hb)
        have HGq := Lib.hid (HGq.out.keep hb)
        have HNp := Lib.hid (show Value.ownBlock (.slice A22 n22 c22) ≠ some p from fun e => by have h1 := (World.ownsRow.lt ho _ e).1; have h2 := HLp.out; omega)
        have HNs := Lib.hid (show Value.ownBlock (.slice A22 n22 c22) ≠ some s from fun e => by have h1 := (World.ownsRow.lt ho _ e).1; have h2 := HLs.out; omega)
        have HNq := Lib.hid (show Value.ownBlock (.slice A22 n22 c22) ≠ some q from fun e => by have h1 := (World.ownsRow.lt ho _ e).1; have h2 := HLq.out; omega)
        have HO := Lib.hid (Ow.lower ho HB.out.size)
        clear ho
        have HB := Lib.hid (HB.out.trans (hb.mono HB.out.size))
        clear hb
        have HLp := Lib.hid (show p < u6.heap.size from HGp.out.lt)
        have HLs := Lib.hid (show s < u6.heap.size from HGs.out.lt)
        have HLq := Lib.hid (show q < u6.heap.size from HGq.out.lt)
        try simp only [Act.put, List.getElem_toArray, List.getElem_cons_succ, List.getElem_cons_zero, List.setIfInBounds_toArray, List.set_cons_zero, List.set_cons_succ]
        refine reg_take (v := .tuple #[.agg #[.int .u8 9, .slice A22 n22 c22], .int .i64 12, .agg (cs8 N).toArray, .int .i64 0]) hR 6 rfl (by kernel_rfl) (by kernel_rfl) (by kernel_rfl) (fun _ _ _ h => by cases h.1) (by rfl) ?_ ?_
        · intro W hW; go_simp; try with_reducible rfl
        try simp only [Act.put, List.getElem_toArray, List.getElem_cons_succ, List.getElem_cons_zero, List.setIfInBounds_toArray, List.set_cons_zero, List.set_cons_succ]
        refine reg_take (v := .agg #[.int .u8 9, .slice A22 n22 c22]) hR 7 rfl (by kernel_rfl) (by kernel_rfl) (by kernel_rfl) (fun _ _ _ h => by cases h.1) (by rfl) ?_ ?_
        · intro W hW; go_simp; try with_reducible rfl
        try simp only [Act.put, List.getElem_toArray, List.getElem_cons_succ, List.getElem_cons_zero, List.setIfInBounds_toArray, List.set_cons_zero, List.set_cons_succ]
        refine reg_take (v := .int .i64 12) hR 8 rfl (by kernel_rfl) (by kernel_rfl) (by kernel_rfl) (fun _ _ _ h => by cases h.1) (by rfl) ?_ ?_
        · intro W hW; go_simp; try with_reducible rfl
        try simp only [Act.put, List.getElem_toArray, List.getElem_cons_succ, List.getElem_cons_zero, List.setIfInBounds_toArray, List.set_cons_zero, List.set_cons_succ]
        refine reg_take (v := .agg (cs8 N).toArray) hR 9 rfl (by kernel_rfl) (by kernel_rfl) (by kernel_rfl) (fun _ _ _ h => by cases h.1) (by rfl) ?_ ?_
        · intro W hW; go_simp; try with_reducible rfl
        try simp only [Act.put, List.getElem_toArray, List.getElem_cons_succ, List.getElem_cons_zero, List.setIfInBounds_toArray, List.set_cons_zero, List.set_cons_succ]
        refine reg_take (v := .int .i64 0) hR 10 rfl (by kernel_rfl) (by kernel_rfl) (by kernel_rfl) (fun _ _ _ h => by cases h.1) (by rfl) ?_ ?_
        · intro W hW; go_simp; try with_reducible rfl
        try simp only [Act.put, List.getElem_toArray, List.getElem_cons_succ, List.getElem_cons_zero, List.setIfInBounds_toArray, List.set_cons_zero, List.set_cons_succ]
        refine reg_step hR 13 (by kernel_rfl) rfl fun K hK => ?_
        try simp only [Act.put, List.getElem_toArray, List.getElem_cons_succ, List.getElem_cons_zero, List.setIfInBounds_toArray, List.set_cons_zero, List.set_cons_succ]
        rw [if_pos (by rfl)]
        refine wp_store_bk 31 _ _ rfl p rfl ([.int .u8 9, .slice A22 n22 c22] : List Value) z31 rfl HGp.out info31 rfl (rec_all _ _ _ _) ?_
        refine hK.out _ _ (below_setRow (Below.refl _ _) HTp.out _) ?_
        clear hK K
        have HGp := Lib.hid (HGp.out.setRow ([.int .u8 9, .slice A22 n22 c22] : List Value))
        have HGs := Lib.hid (HGs.out.other (show s ≠ p from HXps.out.symm) (([.int .u8 9, .slice A22 n22 c22] : List Value)).toArray)
        have HGq := Lib.hid (HGq.out.other (show q ≠ p from HXpq.out.symm) (([.int .u8 9, .slice A22 n22 c22] : List Value)).toArray)
        have HO := Lib.hid (World.ownsRow.kept HO.out (grown_setRow u6 p (([.int .u8 9, .slice A22 n22 c22] : List Value)).toArray) (.inr HNp.out))
        have HB := Lib.hid (below_setRow HB.out HTp.out (([.int .u8 9, .slice A22 n22 c22] : List Value)).toArray)
        generalize hgw : u6.setRow p (([.int .u8 9, .slice A22 n22 c22] : List Value)).toArray = u7 at HB HGp HGs HGq HO ⊢
        clear hgw
        try simp only [Act.put, List.getElem_toArray, List.getElem_cons_succ, List.getElem_cons_zero, List.setIfInBounds_toArray, List.set_cons_zero, List.set_cons_succ]
        refine reg_take (v := .int .i64 12) hR 14 rfl (by kernel_rfl) (by kernel_rfl) (by kernel_rfl) (fun _ _ _ h => by cases h.1) (by rfl) ?_ ?_
        · intro W hW; go_simp; try with_reducible rfl
        try simp only [Act.put, List.getElem_toArray, List.getElem_cons_succ, List.getElem_cons_zero, List.setIfInBounds_toArray, List.set_cons_zero, List.set_cons_succ]
        refine reg_step hR 15 (by kernel_rfl) rfl fun K hK => ?_
        try simp only [Act.put, List.getElem_toArray, List.getElem_cons_succ, List.getElem_cons_zero, List.setIfInBounds_toArray, List.set_cons_zero, List.set_cons_succ]
        rw [if_pos (by rfl)]
        refine wp_store_bk 23 _ _ rfl q rfl (cs8 N) z36 rfl HGq.out (by rw [HN8.out]; exact info36) (by rw [HN8.out]; exact len_z36) (cs8_all _) ?_
        refine hK.out _ _ (below_setRow (Below.refl _ _) HTq.out _) ?_
        clear hK K
        have HGq := Lib.hid (HGq.out.setRow (cs8 N))
        have HGp := Lib.hid (HGp.out.other (show p ≠ q from HXpq.out) ((cs8 N)).toArray)
        have HGs := Lib.hid (HGs.out.other (show s ≠ q from HXsq.out) ((cs8 N)).toArray)
        have HO := Lib.hid (World.ownsRow.kept HO.out (grown_setRow u7 q ((cs8 N)).toArray) (.inr HNq.out))
        have HB := Lib.hid (below_setRow HB.out HTq.out ((cs8 N)).toArray)
        generalize hgw : u7.setRow q ((cs8 N)).toArray = u8 at HB HGp HGs HGq HO ⊢
        clear hgw
        try simp only [Act.put, List.getElem_toArray, List.getElem_cons_succ, List.getElem_cons_zero, List.setIfInBounds_toArray, List.set_cons_zero, List.set_cons_succ]
        refine reg_take (v := .int .i64 0) hR 16 rfl (by kernel_rfl) (by kernel_rfl) (by kernel_rfl) (fun _ _ _ h => by cases h.1) (by rfl) ?_ ?_
        · intro W hW; go_simp; try with_reducible rfl
        try simp only [Act.put, List.getElem_toArray, List.getElem_cons_succ, List.getElem_cons_zero, List.setIfInBounds_toArray, List.set_cons_zero, List.set_cons_succ]
        refine reg_done (by kernel_rfl) ?_ _
        refine ⟨rfl, p, q, s, v29, A31, c31, A22, n22, c22, ?_, HTp, HTq, HXpq, HGp, HGq, HO, HB⟩
        simp only [frame3, puts, List.foldl_cons, List.foldl_nil, Act.put, List.getElem_toArray, List.getElem_cons_succ, List.getElem_cons_zero, List.setIfInBounds_toArray, List.set_cons_zero, List.set_cons_succ]
    · refine ⟨_, rfl, fun K hK => ?_⟩
      try simp only [Act.put, List.getElem_toArray, List.getElem_cons_succ, List.getElem_cons_zero, List.setIfInBounds_toArray, List.set_cons_zero, List.set_cons_succ]
      rw [if_pos (by rfl)]
      refine wp_alloc_z 23 rfl z36 zero36 ?_
      refine hK.out _ _ ((Below.refl _ _).alloc HB.out.size _) ?_
      clear hK K
      have HGq := Lib.hid (Bk.new u2 z36 23)
      have HXpq := Lib.hid (show p ≠ u2.heap.size from by have h1 := HGp.out.lt; omega)
      have HGp := Lib.hid (HGp.out.old (.cells z36.toArray 23))
      have HXsq := Lib.hid (show s ≠ u2.heap.size from by have h1 := HGs.out.lt; omega)
      have HGs := Lib.hid (HGs.out.old (.cells z36.toArray 23))
      have HTq := Lib.hid (show w5.heap.size ≤ u2.heap.size from HB.out.size)
      have HB := Lib.hid (HB.out.alloc HB.out.size (.cells z36.toArray 23))
      have HLq := Lib.hid (show u2.heap.size < (u2.alloc (.cells z36.toArray 23)).heap.size by simp)
      have HLp := Lib.hid (show p < (u2.alloc (.cells z36.toArray 23)).heap.size by have h1 := HLp.out; have h2 := HLq.out; omega)
      have HLs := Lib.hid (show s < (u2.alloc (.cells z36.toArray 23)).heap.size by have h1 := HLs.out; have h2 := HLq.out; omega)
      generalize hgw : u2.alloc (.cells z36.toArray 23) = u3 at HB HGp HGs HGq HLp HLs HLq ⊢
      clear hgw
      generalize hgw : u2.heap.size = q at HGq HTq HLq HXpq HXsq ⊢
      clear hgw
      try simp only [Act.put, List.getElem_toArray, List.getElem_cons_succ, List.getElem_cons_zero, List.setIfInBounds_toArray, List.set_cons_zero, List.set_cons_succ]
      refine reg_step hR 2 (by kernel_rfl) rfl fun K hK => ?_
      try simp only [Act.put, List.getElem_toArray, List.getElem_cons_succ, List.getElem_cons_zero, List.setIfInBounds_toArray, List.set_cons_zero, List.set_cons_succ]
      rw [if_pos (by rfl)]
      go_simp
      refine (Own_any u3 ((HRB.out.below HB.out).more HB.out.size) (by omega)).mono ?_; rintro e u4 ⟨v29, rfl, ho, hb⟩
      refine hK.out _ _ (show Below _ _ _ from hb.mono HB.out.size) ?_
      clear hK K
      have HGp := Lib.hid (HGp.out.keep hb)
      have HGs := Lib.hid (HGs.out.keep hb)
      have HGq := Lib.hid (HGq.out.keep hb)
      have HNp := Lib.hid (show Value.ownBlock (v29) ≠ some p from fun e => by have h1 := (World.ownsRow.lt ho _ e).1; have h2 := HLp.out; omega)
      have HNs := Lib.hid (show Value.ownBlock (v29) ≠ some s from fun e => by have h1 := (World.ownsRow.lt ho _ e).1; have h2 := HLs.out; omega)
      have HNq := Lib.hid (show Value.ownBlock (v29) ≠ some q from fun e => by have h1 := (World.ownsRow.lt ho _ e).1; have h2 := HLq.out; omega)
      have HO := Lib.hid (Ow.lower ho HB.out.size)
      clear ho
      have HB := Lib.hid (HB.out.trans (hb.mono HB.out.size))
      clear hb
      have HLp := Lib.hid (show p < u4.heap.size from HGp.out.lt)
      have HLs := Lib.hid (show s < u4.heap.size from HGs.out.lt)
      have HLq := Lib.hid (show q < u4.heap.size from HGq.out.lt)
      try simp only [Act.put, List.getElem_toArray, List.getElem_cons_succ, List.getElem_cons_zero, List.setIfInBounds_toArray, List.set_cons_zero, List.set_cons_succ]
      refine reg_step hR 4 (by kernel_rfl) rfl fun K hK => ?_
      try simp only [Act.put, List.getElem_toArray, List.getElem_cons_succ, List.getElem_cons_zero, List.setIfInBounds_toArray, List.set_cons_zero, List.set_cons_succ]
      rw [if_pos (by rfl)]
      refine wp_app2 _ _ rfl rfl HO.out rfl (rd7 HGs.out) (by rw [HLB.out]; omega) HB.out.size ?_
      intro v31 u5 ho hg hv
      refine hK.out _ _ (show Below _ _ _ from ⟨hg.os, hg.tape, hg.output, hg.size, fun i hi => hg.block i (Nat.lt_of_lt_of_le hi HB.out.size) (fun e => by have h1 := (World.ownsRow.lt HO.out _ e.symm).1; omega)⟩) ?_
      clear hK K
      have HB := Lib.hid (HB.out.trans (show Below w5.heap.size u4 u5 from ⟨hg.os, hg.tape, hg.output, hg.size, fun i hi => hg.block i (Nat.lt_of_lt_of_le hi HB.out.size) (fun e => by have h1 := (World.ownsRow.lt HO.out _ e.symm).1; omega)⟩))
      have HN1p := Lib.hid (own_ne hv HNp.out HGp.out.lt)
      have HGp := Lib.hid (Bk.grow HGp.out hg HNp.out)
      have HLp := Lib.hid (show p < u5.heap.size from HGp.out.lt)
      have HN1s := Lib.hid (own_ne hv HNs.out HGs.out.lt)
      have HGs := Lib.hid (Bk.grow HGs.out hg HNs.out)
      have HLs := Lib.hid (show s < u5.heap.size from HGs.out.lt)
      have HN1q := Lib.hid (own_ne hv HNq.out HGq.out.lt)
      have HGq := Lib.hid (Bk.grow HGq.out hg HNq.out)
      have HLq := Lib.hid (show q < u5.heap.size from HGq.out.lt)
      obtain ⟨A31, c31, ev, -⟩ := ho.rdN (n := 13) (by rw [List.length_append, HLB.out]; rfl)
      subst ev
      have HO := Lib.hid ho
      clear ho hg hv
      have HNp := HN1p
      clear HN1p
      have HNs := HN1s
      clear HN1s
      have HNq := HN1q
      clear HN1q
      have HRV := Lib.hid (HO.out.rdN (n := 13) (by rw [List.length_append, HLB.out]; rfl))
      try simp only [Act.put, List.getElem_toArray, List.getElem_cons_succ, List.getElem_cons_zero, List.setIfInBounds_toArray, List.set_cons_zero, List.set_cons_succ]
      refine reg_step hR 5 (by kernel_rfl) rfl fun K hK => ?_
      try simp only [Act.put, List.getElem_toArray, List.getElem_cons_succ, List.getElem_cons_zero, List.setIfInBounds_toArray, List.set_cons_zero, List.set_cons_succ]
      rw [if_pos (by rfl)]
      try clear HRV
      go_simp
      refine (HRead.out u5 _ _ (rd_own HO.out (by rw [List.length_append, HLB.out]; rfl))).mono ?_; rintro e u6 ⟨A22, n22, c22, rfl, ho, hb⟩
      refine hK.out _ _ (show Below _ _ _ from hb.mono HB.out.size) ?_
      clear hK K
      have HGp := Lib.hid (HGp.out.keep hb)
      have HGs := Lib.hid (HGs.out.keep hb)
      have HGq := Lib.hid (HGq.out.keep hb)
      have HNp := Lib.hid (show Value.ownBlock (.slice A22 n22 c22) ≠ some p from fun e => by have h1 := (World.ownsRow.lt ho _ e).1; have h2 := HLp.out; omega)
      have HNs := Lib.hid (show Value.ownBlock (.slice A22 n22 c22) ≠ some s from fun e => by have h1 := (World.ownsRow.lt ho _ e).1; have h2 := HLs.out; omega)
      have HNq := Lib.hid (show Value.ownBlock (.slice A22 n22 c22) ≠ some q from fun e => by have h1 := (World.ownsRow.lt ho _ e).1; have h2 := HLq.out; omega)
      have HO := Lib.hid (Ow.lower ho HB.out.size)
      clear ho
      have HB := Lib.hid (HB.out.trans (hb.mono HB.out.size))
      clear hb
      have HLp := Lib.hid (show p < u6.heap.size from HGp.out.lt)
      have HLs := Lib.hid (show s < u6.heap.size from HGs.out.lt)
      have HLq := Lib.hid (show q < u6.heap.size from HGq.out.lt)
      try simp only [Act.put, List.getElem_toArray, List.getElem_cons_succ, List.getElem_cons_zero, List.setIfInBounds_toArray, List.set_cons_zero, List.set_cons_succ]
      refine reg_take (v := .tuple #[.agg #[.int .u8 9, .slice A22 n22 c22], .int .i64 12, .agg (cs8 N).toArray, .int .i64 0]) hR 6 rfl (by kernel_rfl) (by kernel_rfl) (by kernel_rfl) (fun _ _ _ h => by cases h.1) (by rfl) ?_ ?_
      · intro W hW; go_simp; try with_reducible rfl
      try simp only [Act.put, List.getElem_toArray, List.getElem_cons_succ, List.getElem_cons_zero, List.setIfInBounds_toArray, List.set_cons_zero, List.set_cons_succ]
      refine reg_take (v := .agg #[.int .u8 9, .slice A22 n22 c22]) hR 7 rfl (by kernel_rfl) (by kernel_rfl) (by kernel_rfl) (fun _ _ _ h => by cases h.1) (by rfl) ?_ ?_
      · intro W hW; go_simp; try with_reducible rfl
      try simp only [Act.put, List.getElem_toArray, List.getElem_cons_succ, List.getElem_cons_zero, List.setIfInBounds_toArray, List.set_cons_zero, List.set_cons_succ]
      refine reg_take (v := .int .i64 12) hR 8 rfl (by kernel_rfl) (by kernel_rfl) (by kernel_rfl) (fun _ _ _ h => by cases h.1) (by rfl) ?_ ?_
      · intro W hW; go_simp; try with_reducible rfl
      try simp only [Act.put, List.getElem_toArray, List.getElem_cons_succ, List.getElem_cons_zero, List.setIfInBounds_toArray, List.set_cons_zero, List.set_cons_succ]
      refine reg_take (v := .agg (cs8 N).toArray) hR 9 rfl (by kernel_rfl) (by kernel_rfl) (by kernel_rfl) (fun _ _ _ h => by cases h.1) (by rfl) ?_ ?_
      · intro W hW; go_simp; try with_reducible rfl
      try simp only [Act.put, List.getElem_toArray, List.getElem_cons_succ, List.getElem_cons_zero, List.setIfInBounds_toArray, List.set_cons_zero, List.set_cons_succ]
      refine reg_take (v := .int .i64 0) hR 10 rfl (by kernel_rfl) (by kernel_rfl) (by kernel_rfl) (fun _ _ _ h => by cases h.1) (by rfl) ?_ ?_
      · intro W hW; go_simp; try with_reducible rfl
      try simp only [Act.put, List.getElem_toArray, List.getElem_cons_succ, List.getElem_cons_zero, List.setIfInBounds_toArray, List.set_cons_zero, List.set_cons_succ]
      refine reg_step hR 13 (by kernel_rfl) rfl fun K hK => ?_
      try simp only [Act.put, List.getElem_toArray, List.getElem_cons_succ, List.getElem_cons_zero, List.setIfInBounds_toArray, List.set_cons_zero, List.set_cons_succ]
      rw [if_pos (by rfl)]
      refine wp_store_bk 31 _ _ rfl p rfl ([.int .u8 9, .slice A22 n22 c22] : List Value) z31 rfl HGp.out info31 rfl (rec_all _ _ _ _) ?_
      refine hK.out _ _ (below_setRow (Below.refl _ _) HTp.out _) ?_
      clear hK K
      have HGp := Lib.hid (HGp.out.setRow ([.int .u8 9, .slice A22 n22 c22] : List Value))
      have HGs := Lib.hid (HGs.out.other (show s ≠ p from HXps.out.symm) (([.int .u8 9, .slice A22 n22 c22] : List Value)).toArray)
      have HGq := Lib.hid (HGq.out.other (show q ≠ p from HXpq.out.symm) (([.int .u8 9, .slice A22 n22 c22] : List Value)).toArray)
      have HO := Lib.hid (World.ownsRow.kept HO.out (grown_setRow u6 p (([.int .u8 9, .slice A22 n22 c22] : List Value)).toArray) (.inr HNp.out))
      have HB := Lib.hid (below_setRow HB.out HTp.out (([.int .u8 9, .slice A22 n22 c22] : List Value)).toArray)
      generalize hgw : u6.setRow p (([.int .u8 9, .slice A22 n22 c22] : List Value)).toArray = u7 at HB HGp HGs HGq HO ⊢
      clear hgw
      try simp only [Act.put, List.getElem_toArray, List.getElem_cons_succ, List.getElem_cons_zero, List.setIfInBounds_toArray, List.set_cons_zero, List.set_cons_succ]
      refine reg_take (v := .int .i64 12) hR 14 rfl (by kernel_rfl) (by kernel_rfl) (by kernel_rfl) (fun _ _ _ h => by cases h.1) (by rfl) ?_ ?_
      · intro W hW; go_simp; try with_reducible rfl
      try simp only [Act.put, List.getElem_toArray, List.getElem_cons_succ, List.getElem_cons_zero, List.setIfInBounds_toArray, List.set_cons_zero, List.set_cons_succ]
      refine reg_step hR 15 (by kernel_rfl) rfl fun K hK => ?_
      try simp only [Act.put, List.getElem_toArray, List.getElem_cons_succ, List.getElem_cons_zero, List.setIfInBounds_toArray, List.set_cons_zero, List.set_cons_succ]
      rw [if_pos (by rfl)]
      refine wp_store_bk 23 _ _ rfl q rfl (cs8 N) z36 rfl HGq.out (by rw [HN8.out]; exact info36) (by rw [HN8.out]; exact len_z36) (cs8_all _) ?_
      refine hK.out _ _ (below_setRow (Below.refl _ _) HTq.out _) ?_
      clear hK K
      have HGq := Lib.hid (HGq.out.setRow (cs8 N))
      have HGp := Lib.hid (HGp.out.other (show p ≠ q from HXpq.out) ((cs8 N)).toArray)
      have HGs := Lib.hid (HGs.out.other (show s ≠ q from HXsq.out) ((cs8 N)).toArray)
      have HO := Lib.hid (World.ownsRow.kept HO.out (grown_setRow u7 q ((cs8 N)).toArray) (.inr HNq.out))
      have HB := Lib.hid (below_setRow HB.out HTq.out ((cs8 N)).toArray)
      generalize hgw : u7.setRow q ((cs8 N)).toArray = u8 at HB HGp HGs HGq HO ⊢
      clear hgw
      try simp only [Act.put, List.getElem_toArray, List.getElem_cons_succ, List.getElem_cons_zero, List.setIfInBounds_toArray, List.set_cons_zero, List.set_cons_succ]
      refine reg_take (v := .int .i64 0) hR 16 rfl (by kernel_rfl) (by kernel_rfl) (by kernel_rfl) (fun _ _ _ h => by cases h.1) (by rfl) ?_ ?_
      · intro W hW; go_simp; try with_reducible rfl
      try simp only [Act.put, List.getElem_toArray, List.getElem_cons_succ, List.getElem_cons_zero, List.setIfInBounds_toArray, List.set_cons_zero, List.set_cons_succ]
      refine reg_done (by kernel_rfl) ?_ _
      refine ⟨rfl, p, q, s, v29, A31, c31, A22, n22, c22, ?_, HTp, HTq, HXpq, HGp, HGq, HO, HB⟩
      simp only [frame3, puts, List.foldl_cons, List.foldl_nil, Act.put, List.getElem_toArray, List.getElem_cons_succ, List.getElem_cons_zero, List.setIfInBounds_toArray, List.set_cons_zero, List.set_cons_succ]
  · refine ⟨_, rfl, fun K hK => ?_⟩
    try simp only [Act.put, List.getElem_toArray, List.getElem_cons_succ, List.getElem_cons_zero, List.setIfInBounds_toArray, List.set_cons_zero, List.set_cons_succ]
    rw [if_pos (by rfl)]
    refine wp_alloc_z 23 rfl z36 zero36 ?_
    refine hK.out _ _ ((Below.refl _ _).alloc HB.out.size _) ?_
    clear hK K
    have HGq := Lib.hid (Bk.new u1 z36 23)
    have HXpq := Lib.hid (show p ≠ u1.heap.size from by have h1 := HGp.out.lt; omega)
    have HGp := Lib.hid (HGp.out.old (.cells z36.toArray 23))
    have HTq := Lib.hid (show w5.heap.size ≤ u1.heap.size from HB.out.size)
    have HB := Lib.hid (HB.out.alloc HB.out.size (.cells z36.toArray 23))
    have HLq := Lib.hid (show u1.heap.size < (u1.alloc (.cells z36.toArray 23)).heap.size by simp)
    have HLp := Lib.hid (show p < (u1.alloc (.cells z36.toArray 23)).heap.size by have h1 := HLp.out; have h2 := HLq.out; omega)
    generalize hgw : u1.alloc (.cells z36.toArray 23) = u2 at HB HGp HGq HLp HLq ⊢
    clear hgw
    generalize hgw : u1.heap.size = q at HGq HTq HLq HXpq ⊢
    clear hgw
    try simp only [Act.put, List.getElem_toArray, List.getElem_cons_succ, List.getElem_cons_zero, List.setIfInBounds_toArray, List.set_cons_zero, List.set_cons_succ]
    refine reg_fork (rs := [2, 3]) hR (by kernel_rfl) (by simp) ?_
    intro i hi; simp only [List.mem_cons, List.not_mem_nil, or_false] at hi
    rcases hi with rfl | rfl
    · refine ⟨_, rfl, fun K hK => ?_⟩
      try simp only [Act.put, List.getElem_toArray, List.getElem_cons_succ, List.getElem_cons_zero, List.setIfInBounds_toArray, List.set_cons_zero, List.set_cons_succ]
      rw [if_pos (by rfl)]
      go_simp
      refine (Own_any u2 ((HRB.out.below HB.out).more HB.out.size) (by omega)).mono ?_; rintro e u3 ⟨v29, rfl, ho, hb⟩
      refine hK.out _ _ (show Below _ _ _ from hb.mono HB.out.size) ?_
      clear hK K
      have HGp := Lib.hid (HGp.out.keep hb)
      have HGq := Lib.hid (HGq.out.keep hb)
      have HNp := Lib.hid (show Value.ownBlock (v29) ≠ some p from fun e => by have h1 := (World.ownsRow.lt ho _ e).1; have h2 := HLp.out; omega)
      have HNq := Lib.hid (show Value.ownBlock (v29) ≠ some q from fun e => by have h1 := (World.ownsRow.lt ho _ e).1; have h2 := HLq.out; omega)
      have HO := Lib.hid (Ow.lower ho HB.out.size)
      clear ho
      have HB := Lib.hid (HB.out.trans (hb.mono HB.out.size))
      clear hb
      have HLp := Lib.hid (show p < u3.heap.size from HGp.out.lt)
      have HLq := Lib.hid (show q < u3.heap.size from HGq.out.lt)
      try simp only [Act.put, List.getElem_toArray, List.getElem_cons_succ, List.getElem_cons_zero, List.setIfInBounds_toArray, List.set_cons_zero, List.set_cons_succ]
      refine reg_step hR 3 (by kernel_rfl) rfl fun K hK => ?_
      try simp only [Act.put, List.getElem_toArray, List.getElem_cons_succ, List.getElem_cons_zero, List.setIfInBounds_toArray, List.set_cons_zero, List.set_cons_succ]
      rw [if_pos (by rfl)]
      go_simp
      refine hK.out _ _ ((Below.refl _ _).alloc HB.out.size _) ?_
      clear hK K
      have HGs := Lib.hid (Bk.new u3 ([.int .u8 7] : List Value) 5)
      have HXps := Lib.hid (show p ≠ u3.heap.size from by have h1 := HGp.out.lt; omega)
      have HGp := Lib.hid (HGp.out.old (.cells ([.int .u8 7] : List Value).toArray 5))
      have HXqs := Lib.hid (show q ≠ u3.heap.size from by have h1 := HGq.out.lt; omega)
      have HGq := Lib.hid (HGq.out.old (.cells ([.int .u8 7] : List Value).toArray 5))
      have HNs := Lib.hid (show Value.ownBlock (v29) ≠ some u3.heap.size from fun e => by have h1 := (World.ownsRow.lt HO.out _ e).2; omega)
      have HO := Lib.hid (Ow.alloc HO.out (.cells ([.int .u8 7] : List Value).toArray 5))
      have HTs := Lib.hid (show w5.heap.size ≤ u3.heap.size from HB.out.size)
      have HB := Lib.hid (HB.out.alloc HB.out.size (.cells ([.int .u8 7] : List Value).toArray 5))
      have HLs := Lib.hid (show u3.heap.size < (u3.alloc (.cells ([.int .u8 7] : List Value).toArray 5)).heap.size by simp)
      have HLp := Lib.hid (show p < (u3.alloc (.cells ([.int .u8 7] : List Value).toArray 5)).heap.size by have h1 := HLp.out; have h2 := HLs.out; omega)
      have HLq := Lib.hid (show q < (u3.alloc (.cells ([.int .u8 7] : List Value).toArray 5)).heap.size by have h1 := HLq.out; have h2 := HLs.out; omega)
      generalize hgw : u3.alloc (.cells ([.int .u8 7] : List Value).toArray 5) = u4 at HB HGp HGq HGs HO HLp HLq HLs ⊢
      clear hgw
      generalize hgw : u3.heap.size = s at HGs HTs HLs HXps HXqs HNs ⊢
      clear hgw
      try simp only [Act.put, List.getElem_toArray, List.getElem_cons_succ, List.getElem_cons_zero, List.setIfInBounds_toArray, List.set_cons_zero, List.set_cons_succ]
      refine reg_step hR 4 (by kernel_rfl) rfl fun K hK => ?_
      try simp only [Act.put, List.getElem_toArray, List.getElem_cons_succ, List.getElem_cons_zero, List.setIfInBounds_toArray, List.set_cons_zero, List.set_cons_succ]
      rw [if_pos (by rfl)]
      refine wp_app2 _ _ rfl rfl HO.out rfl (rd7 HGs.out) (by rw [HLB.out]; omega) HB.out.size ?_
      intro v31 u5 ho hg hv
      refine hK.out _ _ (show Below _ _ _ from ⟨hg.os, hg.tape, hg.output, hg.size, fun i hi => hg.block i (Nat.lt_of_lt_of_le hi HB.out.size) (fun e => by have h1 := (World.ownsRow.lt HO.out _ e.symm).1; omega)⟩) ?_
      clear hK K
      have HB := Lib.hid (HB.out.trans (show Below w5.heap.size u4 u5 from ⟨hg.os, hg.tape, hg.output, hg.size, fun i hi => hg.block i (Nat.lt_of_lt_of_le hi HB.out.size) (fun e => by have h1 := (World.ownsRow.lt HO.out _ e.symm).1; omega)⟩))
      have HN1p := Lib.hid (own_ne hv HNp.out HGp.out.lt)
      have HGp := Lib.hid (Bk.grow HGp.out hg HNp.out)
      have HLp := Lib.hid (show p < u5.heap.size from HGp.out.lt)
      have HN1q := Lib.hid (own_ne hv HNq.out HGq.out.lt)
      have HGq := Lib.hid (Bk.grow HGq.out hg HNq.out)
      have HLq := Lib.hid (show q < u5.heap.size from HGq.out.lt)
      have HN1s := Lib.hid (own_ne hv HNs.out HGs.out.lt)
      have HGs := Lib.hid (Bk.grow HGs.out hg HNs.out)
      have HLs := Lib.hid (show s < u5.heap.size from HGs.out.lt)
      obtain ⟨A31, c31, ev, -⟩ := ho.rdN (n := 13) (by rw [List.length_append, HLB.out]; rfl)
      subst ev
      have HO := Lib.hid ho
      clear ho hg hv
      have HNp := HN1p
      clear HN1p
      have HNq := HN1q
      clear HN1q
      have HNs := HN1s
      clear HN1s
      have HRV := Lib.hid (HO.out.rdN (n := 13) (by rw [List.length_append, HLB.out]; rfl))
      try simp only [Act.put, List.getElem_toArray, List.getElem_cons_succ, List.getElem_cons_zero, List.setIfInBounds_toArray, List.set_cons_zero, List.set_cons_succ]
      refine reg_step hR 5 (by kernel_rfl) rfl fun K hK => ?_
      try simp only [Act.put, List.getElem_toArray, List.getElem_cons_succ, List.getElem_cons_zero, List.setIfInBounds_toArray, List.set_cons_zero, List.set_cons_succ]
      rw [if_pos (by rfl)]
      try clear HRV
      go_simp
      refine (HRead.out u5 _ _ (rd_own HO.out (by rw [List.length_append, HLB.out]; rfl))).mono ?_; rintro e u6 ⟨A22, n22, c22, rfl, ho, hb⟩
      refine hK.out _ _ (show Below _ _ _ from hb.mono HB.out.size) ?_
      clear hK K
      have HGp := Lib.hid (HGp.out.keep hb)
      have HGq := Lib.hid (HGq.out.keep hb)
      have HGs := Lib.hid (HGs.out.keep hb)
      have HNp := Lib.hid (show Value.ownBlock (.slice A22 n22 c22) ≠ some p from fun e => by have h1 := (World.ownsRow.lt ho _ e).1; have h2 := HLp.out; omega)
      have HNq := Lib.hid (show Value.ownBlock (.slice A22 n22 c22) ≠ some q from fun e => by have h1 := (World.ownsRow.lt ho _ e).1; have h2 := HLq.out; omega)
      have HNs := Lib.hid (show Value.ownBlock (.slice A22 n22 c22) ≠ some s from fun e => by have h1 := (World.ownsRow.lt ho _ e).1; have h2 := HLs.out; omega)
      have HO := Lib.hid (Ow.lower ho HB.out.size)
      clear ho
      have HB := Lib.hid (HB.out.trans (hb.mono HB.out.size))
      clear hb
      have HLp := Lib.hid (show p < u6.heap.size from HGp.out.lt)
      have HLq := Lib.hid (show q < u6.heap.size from HGq.out.lt)
      have HLs := Lib.hid (show s < u6.heap.size from HGs.out.lt)
      try simp only [Act.put, List.getElem_toArray, List.getElem_cons_succ, List.getElem_cons_zero, List.setIfInBounds_toArray, List.set_cons_zero, List.set_cons_succ]
      refine reg_take (v := .tuple #[.agg #[.int .u8 9, .slice A22 n22 c22], .int .i64 12, .agg (cs8 N).toArray, .int .i64 0]) hR 6 rfl (by kernel_rfl) (by kernel_rfl) (by kernel_rfl) (fun _ _ _ h => by cases h.1) (by rfl) ?_ ?_
      · intro W hW; go_simp; try with_reducible rfl
      try simp only [Act.put, List.getElem_toArray, List.getElem_cons_succ, List.getElem_cons_zero, List.setIfInBounds_toArray, List.set_cons_zero, List.set_cons_succ]
      refine reg_take (v := .agg #[.int .u8 9, .slice A22 n22 c22]) hR 7 rfl (by kernel_rfl) (by kernel_rfl) (by kernel_rfl) (fun _ _ _ h => by cases h.1) (by rfl) ?_ ?_
      · intro W hW; go_simp; try with_reducible rfl
      try simp only [Act.put, List.getElem_toArray, List.getElem_cons_succ, List.getElem_cons_zero, List.setIfInBounds_toArray, List.set_cons_zero, List.set_cons_succ]
      refine reg_take (v := .int .i64 12) hR 8 rfl (by kernel_rfl) (by kernel_rfl) (by kernel_rfl) (fun _ _ _ h => by cases h.1) (by rfl) ?_ ?_
      · intro W hW; go_simp; try with_reducible rfl
      try simp only [Act.put, List.getElem_toArray, List.getElem_cons_succ, List.getElem_cons_zero, List.setIfInBounds_toArray, List.set_cons_zero, List.set_cons_succ]
      refine reg_take (v := .agg (cs8 N).toArray) hR 9 rfl (by kernel_rfl) (by kernel_rfl) (by kernel_rfl) (fun _ _ _ h => by cases h.1) (by rfl) ?_ ?_
      · intro W hW; go_simp; try with_reducible rfl
      try simp only [Act.put, List.getElem_toArray, List.getElem_cons_succ, List.getElem_cons_zero, List.setIfInBounds_toArray, List.set_cons_zero, List.set_cons_succ]
      refine reg_take (v := .int .i64 0) hR 10 rfl (by kernel_rfl) (by kernel_rfl) (by kernel_rfl) (fun _ _ _ h => by cases h.1) (by rfl) ?_ ?_
      · intro W hW; go_simp; try with_reducible rfl
      try simp only [Act.put, List.getElem_toArray, List.getElem_cons_succ, List.getElem_cons_zero, List.setIfInBounds_toArray, List.set_cons_zero, List.set_cons_succ]
      refine reg_step hR 13 (by kernel_rfl) rfl fun K hK => ?_
      try simp only [Act.put, List.getElem_toArray, List.getElem_cons_succ, List.getElem_cons_zero, List.setIfInBounds_toArray, List.set_cons_zero, List.set_cons_succ]
      rw [if_pos (by rfl)]
      refine wp_store_bk 31 _ _ rfl p rfl ([.int .u8 9, .slice A22 n22 c22] : List Value) z31 rfl HGp.out info31 rfl (rec_all _ _ _ _) ?_
      refine hK.out _ _ (below_setRow (Below.refl _ _) HTp.out _) ?_
      clear hK K
      have HGp := Lib.hid (HGp.out.setRow ([.int .u8 9, .slice A22 n22 c22] : List Value))
      have HGq := Lib.hid (HGq.out.other (show q ≠ p from HXpq.out.symm) (([.int .u8 9, .slice A22 n22 c22] : List Value)).toArray)
      have HGs := Lib.hid (HGs.out.other (show s ≠ p from HXps.out.symm) (([.int .u8 9, .slice A22 n22 c22] : List Value)).toArray)
      have HO := Lib.hid (World.ownsRow.kept HO.out (grown_setRow u6 p (([.int .u8 9, .slice A22 n22 c22] : List Value)).toArray) (.inr HNp.out))
      have HB := Lib.hid (below_setRow HB.out HTp.out (([.int .u8 9, .slice A22 n22 c22] : List Value)).toArray)
      generalize hgw : u6.setRow p (([.int .u8 9, .slice A22 n22 c22] : List Value)).toArray = u7 at HB HGp HGq HGs HO ⊢
      clear hgw
      try simp only [Act.put, List.getElem_toArray, List.getElem_cons_succ, List.getElem_cons_zero, List.setIfInBounds_toArray, List.set_cons_zero, List.set_cons_succ]
      refine reg_take (v := .int .i64 12) hR 14 rfl (by kernel_rfl) (by kernel_rfl) (by kernel_rfl) (fun _ _ _ h => by cases h.1) (by rfl) ?_ ?_
      · intro W hW; go_simp; try with_reducible rfl
      try simp only [Act.put, List.getElem_toArray, List.getElem_cons_succ, List.getElem_cons_zero, List.setIfInBounds_toArray, List.set_cons_zero, List.set_cons_succ]
      refine reg_step hR 15 (by kernel_rfl) rfl fun K hK => ?_
      try simp only [Act.put, List.getElem_toArray, List.getElem_cons_succ, List.getElem_cons_zero, List.setIfInBounds_toArray, List.set_cons_zero, List.set_cons_succ]
      rw [if_pos (by rfl)]
      refine wp_store_bk 23 _ _ rfl q rfl (cs8 N) z36 rfl HGq.out (by rw [HN8.out]; exact info36) (by rw [HN8.out]; exact len_z36) (cs8_all _) ?_
      refine hK.out _ _ (below_setRow (Below.refl _ _) HTq.out _) ?_
      clear hK K
      have HGq := Lib.hid (HGq.out.setRow (cs8 N))
      have HGp := Lib.hid (HGp.out.other (show p ≠ q from HXpq.out) ((cs8 N)).toArray)
      have HGs := Lib.hid (HGs.out.other (show s ≠ q from HXqs.out.symm) ((cs8 N)).toArray)
      have HO := Lib.hid (World.ownsRow.kept HO.out (grown_setRow u7 q ((cs8 N)).toArray) (.inr HNq.out))
      have HB := Lib.hid (below_setRow HB.out HTq.out ((cs8 N)).toArray)
      generalize hgw : u7.setRow q ((cs8 N)).toArray = u8 at HB HGp HGq HGs HO ⊢
      clear hgw
      try simp only [Act.put, List.getElem_toArray, List.getElem_cons_succ, List.getElem_cons_zero, List.setIfInBounds_toArray, List.set_cons_zero, List.set_cons_succ]
      refine reg_take (v := .int .i64 0) hR 16 rfl (by kernel_rfl) (by kernel_rfl) (by kernel_rfl) (fun _ _ _ h => by cases h.1) (by rfl) ?_ ?_
      · intro W hW; go_simp; try with_reducible rfl
      try simp only [Act.put, List.getElem_toArray, List.getElem_cons_succ, List.getElem_cons_zero, List.setIfInBounds_toArray, List.set_cons_zero, List.set_cons_succ]
      refine reg_done (by kernel_rfl) ?_ _
      refine ⟨rfl, p, q, s, v29, A31, c31, A22, n22, c22, ?_, HTp, HTq, HXpq, HGp, HGq, HO, HB⟩
      simp only [frame3, puts, List.foldl_cons, List.foldl_nil, Act.put, List.getElem_toArray, List.getElem_cons_succ, List.getElem_cons_zero, List.setIfInBounds_toArray, List.set_cons_zero, List.set_cons_succ]
    · refine ⟨_, rfl, fun K hK => ?_⟩
      try simp only [Act.put, List.getElem_toArray, List.getElem_cons_succ, List.getElem_cons_zero, List.setIfInBounds_toArray, List.set_cons_zero, List.set_cons_succ]
      rw [if_pos (by rfl)]
      go_simp
      refine hK.out _ _ ((Below.refl _ _).alloc HB.out.size _) ?_
      clear hK K
      have HGs := Lib.hid (Bk.new u2 ([.int .u8 7] : List Value) 5)
      have HXps := Lib.hid (show p ≠ u2.heap.size from by have h1 := HGp.out.lt; omega)
      have HGp := Lib.hid (HGp.out.old (.cells ([.int .u8 7] : List Value).toArray 5))
      have HXqs := Lib.hid (show q ≠ u2.heap.size from by have h1 := HGq.out.lt; omega)
      have HGq := Lib.hid (HGq.out.old (.cells ([.int .u8 7] : List Value).toArray 5))
      have HTs := Lib.hid (show w5.heap.size ≤ u2.heap.size from HB.out.size)
      have HB := Lib.hid (HB.out.alloc HB.out.size (.cells ([.int .u8 7] : List Value).toArray 5))
      have HLs := Lib.hid (show u2.heap.size < (u2.alloc (.cells ([.int .u8 7] : List Value).toArray 5)).heap.size by simp)
      have HLp := Lib.hid (show p < (u2.alloc (.cells ([.int .u8 7] : List Value).toArray 5)).heap.size by have h1 := HLp.out; have h2 := HLs.out; omega)
      have HLq := Lib.hid (show q < (u2.alloc (.cells ([.int .u8 7] : List Value).toArray 5)).heap.size by have h1 := HLq.out; have h2 := HLs.out; omega)
      generalize hgw : u2.alloc (.cells ([.int .u8 7] : List Value).toArray 5) = u3 at HB HGp HGq HGs HLp HLq HLs ⊢
      clear hgw
      generalize hgw : u2.heap.size = s at HGs HTs HLs HXps HXqs ⊢
      clear hgw
      try simp only [Act.put, List.getElem_toArray, List.getElem_cons_succ, List.getElem_cons_zero, List.setIfInBounds_toArray, List.set_cons_zero, List.set_cons_succ]
      refine reg_step hR 2 (by kernel_rfl) rfl fun K hK => ?_
      try simp only [Act.put, List.getElem_toArray, List.getElem_cons_succ, List.getElem_cons_zero, List.setIfInBounds_toArray, List.set_cons_zero, List.set_cons_succ]
      rw [if_pos (by rfl)]
      go_simp
      refine (Own_any u3 ((HRB.out.below HB.out).more HB.out.size) (by omega)).mono ?_; rintro e u4 ⟨v29, rfl, ho, hb⟩
      refine hK.out _ _ (show Below _ _ _ from hb.mono HB.out.size) ?_
      clear hK K
      have HGp := Lib.hid (HGp.out.keep hb)
      have HGq := Lib.hid (HGq.out.keep hb)
      have HGs := Lib.hid (HGs.out.keep hb)
      have HNp := Lib.hid (show Value.ownBlock (v29) ≠ some p from fun e => by have h1 := (World.ownsRow.lt ho _ e).1; have h2 := HLp.out; omega)
      have HNq := Lib.hid (show Value.ownBlock (v29) ≠ some q from fun e => by have h1 := (World.ownsRow.lt ho _ e).1; have h2 := HLq.out; omega)
      have HNs := Lib.hid (show Value.ownBlock (v29) ≠ some s from fun e => by have h1 := (World.ownsRow.lt ho _ e).1; have h2 := HLs.out; omega)
      have HO := Lib.hid (Ow.lower ho HB.out.size)
      clear ho
      have HB := Lib.hid (HB.out.trans (hb.mono HB.out.size))
      clear hb
      have HLp := Lib.hid (show p < u4.heap.size from HGp.out.lt)
      have HLq := Lib.hid (show q < u4.heap.size from HGq.out.lt)
      have HLs := Lib.hid (show s < u4.heap.size from HGs.out.lt)
      try simp only [Act.put, List.getElem_toArray, List.getElem_cons_succ, List.getElem_cons_zero, List.setIfInBounds_toArray, List.set_cons_zero, List.set_cons_succ]
      refine reg_step hR 4 (by kernel_rfl) rfl fun K hK => ?_
      try simp only [Act.put, List.getElem_toArray, List.getElem_cons_succ, List.getElem_cons_zero, List.setIfInBounds_toArray, List.set_cons_zero, List.set_cons_succ]
      rw [if_pos (by rfl)]
      refine wp_app2 _ _ rfl rfl HO.out rfl (rd7 HGs.out) (by rw [HLB.out]; omega) HB.out.size ?_
      intro v31 u5 ho hg hv
      refine hK.out _ _ (show Below _ _ _ from ⟨hg.os, hg.tape, hg.output, hg.size, fun i hi => hg.block i (Nat.lt_of_lt_of_le hi HB.out.size) (fun e => by have h1 := (World.ownsRow.lt HO.out _ e.symm).1; omega)⟩) ?_
      clear hK K
      have HB := Lib.hid (HB.out.trans (show Below w5.heap.size u4 u5 from ⟨hg.os, hg.tape, hg.output, hg.size, fun i hi => hg.block i (Nat.lt_of_lt_of_le hi HB.out.size) (fun e => by have h1 := (World.ownsRow.lt HO.out _ e.symm).1; omega)⟩))
      have HN1p := Lib.hid (own_ne hv HNp.out HGp.out.lt)
      have HGp := Lib.hid (Bk.grow HGp.out hg HNp.out)
      have HLp := Lib.hid (show p < u5.heap.size from HGp.out.lt)
      have HN1q := Lib.hid (own_ne hv HNq.out HGq.out.lt)
      have HGq := Lib.hid (Bk.grow HGq.out hg HNq.out)
      have HLq := Lib.hid (show q < u5.heap.size from HGq.out.lt)
      have HN1s := Lib.hid (own_ne hv HNs.out HGs.out.lt)
      have HGs := Lib.hid (Bk.grow HGs.out hg HNs.out)
      have HLs := Lib.hid (show s < u5.heap.size from HGs.out.lt)
      obtain ⟨A31, c31, ev, -⟩ := ho.rdN (n := 13) (by rw [List.length_append, HLB.out]; rfl)
      subst ev
      have HO := Lib.hid ho
      clear ho hg hv
      have HNp := HN1p
      clear HN1p
      have HNq := HN1q
      clear HN1q
      have HNs := HN1s
      clear HN1s
      have HRV := Lib.hid (HO.out.rdN (n := 13) (by rw [List.length_append, HLB.out]; rfl))
      try simp only [Act.put, List.getElem_toArray, List.getElem_cons_succ, List.getElem_cons_zero, List.setIfInBounds_toArray, List.set_cons_zero, List.set_cons_succ]
      refine reg_step hR 5 (by kernel_rfl) rfl fun K hK => ?_
      try simp only [Act.put, List.getElem_toArray, List.getElem_cons_succ, List.getElem_cons_zero, List.setIfInBounds_toArray, List.set_cons_zero, List.set_cons_succ]
      rw [if_pos (by rfl)]
      try clear HRV
      go_simp
      refine (HRead.out u5 _ _ (rd_own HO.out (by rw [List.length_append, HLB.out]; rfl))).mono ?_; rintro e u6 ⟨A22, n22, c22, rfl, ho, hb⟩
      refine hK.out _ _ (show Below _ _ _ from hb.mono HB.out.size) ?_
      clear hK K
      have HGp := Lib.hid (HGp.out.keep hb)
      have HGq := Lib.hid (HGq.out.keep hb)
      have HGs := Lib.hid (HGs.out.keep hb)
      have HNp := Lib.hid (show Value.ownBlock (.slice A22 n22 c22) ≠ some p from fun e => by have h1 := (World.ownsRow.lt ho _ e).1; have h2 := HLp.out; omega)
      have HNq := Lib.hid (show Value.ownBlock (.slice A22 n22 c22) ≠ some q from fun e => by have h1 := (World.ownsRow.lt ho _ e).1; have h2 := HLq.out; omega)
      have HNs := Lib.hid (show Value.ownBlock (.slice A22 n22 c22) ≠ some s from fun e => by have h1 := (World.ownsRow.lt ho _ e).1; have h2 := HLs.out; omega)
      have HO := Lib.hid (Ow.lower ho HB.out.size)
      clear ho
      have HB := Lib.hid (HB.out.trans (hb.mono HB.out.size))
      clear hb
      have HLp := Lib.hid (show p < u6.heap.size from HGp.out.lt)
      have HLq := Lib.hid (show q < u6.heap.size from HGq.out.lt)
      have HLs := Lib.hid (show s < u6.heap.size from HGs.out.lt)
      try simp only [Act.put, List.getElem_toArray, List.getElem_cons_succ, List.getElem_cons_zero, List.setIfInBounds_toArray, List.set_cons_zero, List.set_cons_succ]
      refine reg_take (v := .tuple #[.agg #[.int .u8 9, .slice A22 n22 c22], .int .i64 12, .agg (cs8 N).toArray, .int .i64 0]) hR 6 rfl (by kernel_rfl) (by kernel_rfl) (by kernel_rfl) (fun _ _ _ h => by cases h.1) (by rfl) ?_ ?_
      · intro W hW; go_simp; try with_reducible rfl
      try simp only [Act.put, List.getElem_toArray, List.getElem_cons_succ, List.getElem_cons_zero, List.setIfInBounds_toArray, List.set_cons_zero, List.set_cons_succ]
      refine reg_take (v := .agg #[.int .u8 9, .slice A22 n22 c22]) hR 7 rfl (by kernel_rfl) (by kernel_rfl) (by kernel_rfl) (fun _ _ _ h => by cases h.1) (by rfl) ?_ ?_
      · intro W hW; go_simp; try with_reducible rfl
      try simp only [Act.put, List.getElem_toArray, List.getElem_cons_succ, List.getElem_cons_zero, List.setIfInBounds_toArray, List.set_cons_zero, List.set_cons_succ]
      refine reg_take (v := .int .i64 12) hR 8 rfl (by kernel_rfl) (by kernel_rfl) (by kernel_rfl) (fun _ _ _ h => by cases h.1) (by rfl) ?_ ?_
      · intro W hW; go_simp; try with_reducible rfl
      try simp only [Act.put, List.getElem_toArray, List.getElem_cons_succ, List.getElem_cons_zero, List.setIfInBounds_toArray, List.set_cons_zero, List.set_cons_succ]
      refine reg_take (v := .agg (cs8 N).toArray) hR 9 rfl (by kernel_rfl) (by kernel_rfl) (by kernel_rfl) (fun _ _ _ h => by cases h.1) (by rfl) ?_ ?_
      · intro W hW; go_simp; try with_reducible rfl
      try simp only [Act.put, List.getElem_toArray, List.getElem_cons_succ, List.getElem_cons_zero, List.setIfInBounds_toArray, List.set_cons_zero, List.set_cons_succ]
      refine reg_take (v := .int .i64 0) hR 10 rfl (by kernel_rfl) (by kernel_rfl) (by kernel_rfl) (fun _ _ _ h => by cases h.1) (by rfl) ?_ ?_
      · intro W hW; go_simp; try with_reducible rfl
      try simp only [Act.put, List.getElem_toArray, List.getElem_cons_succ, List.getElem_cons_zero, List.setIfInBounds_toArray, List.set_cons_zero, List.set_cons_succ]
      refine reg_step hR 13 (by kernel_rfl) rfl fun K hK => ?_
      try simp only [Act.put, List.getElem_toArray, List.getElem_cons_succ, List.getElem_cons_zero, List.setIfInBounds_toArray, List.set_cons_zero, List.set_cons_succ]
      rw [if_pos (by rfl)]
      refine wp_store_bk 31 _ _ rfl p rfl ([.int .u8 9, .slice A22 n22 c22] : List Value) z31 rfl HGp.out info31 rfl (rec_all _ _ _ _) ?_
      refine hK.out _ _ (below_setRow (Below.refl _ _) HTp.out _) ?_
      clear hK K
      have HGp := Lib.hid (HGp.out.setRow ([.int .u8 9, .slice A22 n22 c22] : List Value))
      have HGq := Lib.hid (HGq.out.other (show q ≠ p from HXpq.out.symm) (([.int .u8 9, .slice A22 n22 c22] : List Value)).toArray)
      have HGs := Lib.hid (HGs.out.other (show s ≠ p from HXps.out.symm) (([.int .u8 9, .slice A22 n22 c22] : List Value)).toArray)
      have HO := Lib.hid (World.ownsRow.kept HO.out (grown_setRow u6 p (([.int .u8 9, .slice A22 n22 c22] : List Value)).toArray) (.inr HNp.out))
      have HB := Lib.hid (below_setRow HB.out HTp.out (([.int .u8 9, .slice A22 n22 c22] : List Value)).toArray)
      generalize hgw : u6.setRow p (([.int .u8 9, .slice A22 n22 c22] : List Value)).toArray = u7 at HB HGp HGq HGs HO ⊢
      clear hgw
      try simp only [Act.put, List.getElem_toArray, List.getElem_cons_succ, List.getElem_cons_zero, List.setIfInBounds_toArray, List.set_cons_zero, List.set_cons_succ]
      refine reg_take (v := .int .i64 12) hR 14 rfl (by kernel_rfl) (by kernel_rfl) (by kernel_rfl) (fun _ _ _ h => by cases h.1) (by rfl) ?_ ?_
      · intro W hW; go_simp; try with_reducible rfl
      try simp only [Act.put, List.getElem_toArray, List.getElem_cons_succ, List.getElem_cons_zero, List.setIfInBounds_toArray, List.set_cons_zero, List.set_cons_succ]
      refine reg_step hR 15 (by kernel_rfl) rfl fun K hK => ?_
      try simp only [Act.put, List.getElem_toArray, List.getElem_cons_succ, List.getElem_cons_zero, List.setIfInBounds_toArray, List.set_cons_zero, List.set_cons_succ]
      rw [if_pos (by rfl)]
      refine wp_store_bk 23 _ _ rfl q rfl (cs8 N) z36 rfl HGq.out (by rw [HN8.out]; exact info36) (by rw [HN8.out]; exact len_z36) (cs8_all _) ?_
      refine hK.out _ _ (below_setRow (Below.refl _ _) HTq.out _) ?_
      clear hK K
      have HGq := Lib.hid (HGq.out.setRow (cs8 N))
      have HGp := Lib.hid (HGp.out.other (show p ≠ q from HXpq.out) ((cs8 N)).toArray)
      have HGs := Lib.hid (HGs.out.other (show s ≠ q from HXqs.out.symm) ((cs8 N)).toArray)
      have HO := Lib.hid (World.ownsRow.kept HO.out (grown_setRow u7 q ((cs8 N)).toArray) (.inr HNq.out))
      have HB := Lib.hid (below_setRow HB.out HTq.out ((cs8 N)).toArray)
      generalize hgw : u7.setRow q ((cs8 N)).toArray = u8 at HB HGp HGq HGs HO ⊢
      clear hgw
      try simp only [Act.put, List.getElem_toArray, List.getElem_cons_succ, List.getElem_cons_zero, List.setIfInBounds_toArray, List.set_cons_zero, List.set_cons_succ]
      refine reg_take (v := .int .i64 0) hR 16 rfl (by kernel_rfl) (by kernel_rfl) (by kernel_rfl) (fun _ _ _ h => by cases h.1) (by rfl) ?_ ?_
      · intro W hW; go_simp; try with_reducible rfl
      try simp only [Act.put, List.getElem_toArray, List.getElem_cons_succ, List.getElem_cons_zero, List.setIfInBounds_toArray, List.set_cons_zero, List.set_cons_succ]
      refine reg_done (by kernel_rfl) ?_ _
      refine ⟨rfl, p, q, s, v29, A31, c31, A22, n22, c22, ?_, HTp, HTq, HXpq, HGp, HGq, HO, HB⟩
      simp only [frame3, puts, List.foldl_cons, List.foldl_nil, Act.put, List.getElem_toArray, List.getElem_cons_succ, List.getElem_cons_zero, List.setIfInBounds_toArray, List.set_cons_zero, List.set_cons_succ]

set_option maxHeartbeats 6400000 in
theorem br12 (w5 u0 : World) (C N b : List UInt8) (A3 : Option Addr) (k3 c1 c3 : Nat) (HLB : Hid (b.length = 12)) (HN8 : Hid ((cs8 N).length = 32)) (HRB : Hid (Rd w5 w5.heap.size A3 12 k3 b)) (HB : Hid (Below w5.heap.size w5 u0)) (HRead : Hid (∀ (W : World) (A : Option Addr) (c : Nat), Rd W W.heap.size A 13 c (b ++ [7]) → Calls Try.prog 9 #[.agg (cs8 C).toArray, .slice A 13 c] W fun e w' => ∃ A n c, e = .returned (.tuple #[.agg #[.int .u8 9, .slice A n c], .int .i64 12, .agg (cs8 N).toArray, .int .i64 0]) ∧ Ow w' W.heap.size (.slice A n c) [120, 121] ∧ Below W.heap.size W w')) : Br w5 u0 C N A3 k3 c1 c3 12 := by
  have hR := Sb.stays w5.heap.size
  unfold Br ops3
  refine ⟨_, rfl, fun K hK => ?_⟩
  dsimp only [frame3b]
  try simp only [Act.put, List.getElem_toArray, List.getElem_cons_succ, List.getElem_cons_zero, List.setIfInBounds_toArray, List.set_cons_zero, List.set_cons_succ]
  rw [if_pos (by rfl)]
  refine wp_alloc_z 23 rfl z36 zero36 ?_
  refine hK.out _ _ ((Below.refl _ _).alloc HB.out.size _) ?_
  clear hK K
  have HGq := Lib.hid (Bk.new u0 z36 23)
  have HTq := Lib.hid (show w5.heap.size ≤ u0.heap.size from HB.out.size)
  have HB := Lib.hid (HB.out.alloc HB.out.size (.cells z36.toArray 23))
  have HLq := Lib.hid (show u0.heap.size < (u0.alloc (.cells z36.toArray 23)).heap.size by simp)
  generalize hgw : u0.alloc (.cells z36.toArray 23) = u1 at HB HGq HLq ⊢
  clear hgw
  generalize hgw : u0.heap.size = q at HGq HTq HLq ⊢
  clear hgw
  try simp only [Act.put, List.getElem_toArray, List.getElem_cons_succ, List.getElem_cons_zero, List.setIfInBounds_toArray, List.set_cons_zero, List.set_cons_succ]
  refine reg_fork (rs := [2, 3, 11]) hR (by kernel_rfl) (by simp) ?_
  intro i hi; simp only [List.mem_cons, List.not_mem_nil, or_false] at hi
  rcases hi with rfl | rfl | rfl
  · refine ⟨_, rfl, fun K hK => ?_⟩
    try simp only [Act.put, List.getElem_toArray, List.getElem_cons_succ, List.getElem_cons_zero, List.setIfInBounds_toArray, List.set_cons_zero, List.set_cons_succ]
    rw [if_pos (by rfl)]
    go_simp
    refine (Own_any u1 ((HRB.out.below HB.out).more HB.out.size) (by omega)).mono ?_; rintro e u2 ⟨v29, rfl, ho, hb⟩
    refine hK.out _ _ (show Below _ _ _ from hb.mono HB.out.size) ?_
    clear hK K
    have HGq := Lib.hid (HGq.out.keep hb)
    have HNq := Lib.hid (show Value.ownBlock (v29) ≠ some q from fun e => by have h1 := (World.ownsRow.lt ho _ e).1; have h2 := HLq.out; omega)
    have HO := Lib.hid (Ow.lower ho HB.out.size)
    clear ho
    have HB := Lib.hid (HB.out.trans (hb.mono HB.out.size))
    clear hb
    have HLq := Lib.hid (show q < u2.heap.size from HGq.out.lt)
    try simp only [Act.put, List.getElem_toArray, List.getElem_cons_succ, List.getElem_cons_zero, List.setIfInBounds_toArray, List.set_cons_zero, List.set_cons_succ]
    refine reg_fork (rs := [3, 11]) hR (by kernel_rfl) (by simp) ?_
    intro i hi; simp only [List.mem_cons, List.not_mem_nil, or_false] at hi
    rcases hi with rfl | rfl
    · refine ⟨_, rfl, fun K hK => ?_⟩
      try simp only [Act.put, List.getElem_toArray, List.getElem_cons_succ, List.getElem_cons_zero, List.setIfInBounds_toArray, List.set_cons_zero, List.set_cons_succ]
      rw [if_pos (by rfl)]
      go_simp
      refine hK.out _ _ ((Below.refl _ _).alloc HB.out.size _) ?_
      clear hK K
      have HGs := Lib.hid (Bk.new u2 ([.int .u8 7] : List Value) 5)
      have HXqs := Lib.hid (show q ≠ u2.heap.size from by have h1 := HGq.out.lt; omega)
      have HGq := Lib.hid (HGq.out.old (.cells ([.int .u8 7] : List Value).toArray 5))
      have HNs := Lib.hid (show Value.ownBlock (v29) ≠ some u2.heap.size from fun e => by have h1 := (World.ownsRow.lt HO.out _ e).2; omega)
      have HO := Lib.hid (Ow.alloc HO.out (.cells ([.int .u8 7] : List Value).toArray 5))
      have HTs := Lib.hid (show w5.heap.size ≤ u2.heap.size from HB.out.size)
      have HB := Lib.hid (HB.out.alloc HB.out.size (.cells ([.int .u8 7] : List Value).toArray 5))
      have HLs := Lib.hid (show u2.heap.size < (u2.alloc (.cells ([.int .u8 7] : List Value).toArray 5)).heap.size by simp)
      have HLq := Lib.hid (show q < (u2.alloc (.cells ([.int .u8 7] : List Value).toArray 5)).heap.size by have h1 := HLq.out; have h2 := HLs.out; omega)
      generalize hgw : u2.alloc (.cells ([.int .u8 7] : List Value).toArray 5) = u3 at HB HGq HGs HO HLq HLs ⊢
      clear hgw
      generalize hgw : u2.heap.size = s at HGs HTs HLs HXqs HNs ⊢
      clear hgw
      try simp only [Act.put, List.getElem_toArray, List.getElem_cons_succ, List.getElem_cons_zero, List.setIfInBounds_toArray, List.set_cons_zero, List.set_cons_succ]
      refine reg_fork (rs := [4, 11]) hR (by kernel_rfl) (by simp) ?_
      intro i hi; simp only [List.mem_cons, List.not_mem_nil, or_false] at hi
      rcases hi with rfl | rfl
      · refine ⟨_, rfl, fun K hK => ?_⟩
        try simp only [Act.put, List.getElem_toArray, List.getElem_cons_succ, List.getElem_cons_zero, List.setIfInBounds_toArray, List.set_cons_zero, List.set_cons_succ]
        rw [if_pos (by rfl)]
        refine wp_app2 _ _ rfl rfl HO.out rfl (rd7 HGs.out) (by rw [HLB.out]; omega) HB.out.size ?_
        intro v31 u4 ho hg hv
        refine hK.out _ _ (show Below _ _ _ from ⟨hg.os, hg.tape, hg.output, hg.size, fun i hi => hg.block i (Nat.lt_of_lt_of_le hi HB.out.size) (fun e => by have h1 := (World.ownsRow.lt HO.out _ e.symm).1; omega)⟩) ?_
        clear hK K
        have HB := Lib.hid (HB.out.trans (show Below w5.heap.size u3 u4 from ⟨hg.os, hg.tape, hg.output, hg.size, fun i hi => hg.block i (Nat.lt_of_lt_of_le hi HB.out.size) (fun e => by have h1 := (World.ownsRow.lt HO.out _ e.symm).1; omega)⟩))
        have HN1q := Lib.hid (own_ne hv HNq.out HGq.out.lt)
        have HGq := Lib.hid (Bk.grow HGq.out hg HNq.out)
        have HLq := Lib.hid (show q < u4.heap.size from HGq.out.lt)
        have HN1s := Lib.hid (own_ne hv HNs.out HGs.out.lt)
        have HGs := Lib.hid (Bk.grow HGs.out hg HNs.out)
        have HLs := Lib.hid (show s < u4.heap.size from HGs.out.lt)
        obtain ⟨A31, c31, ev, -⟩ := ho.rdN (n := 13) (by rw [List.length_append, HLB.out]; rfl)
        subst ev
        have HO := Lib.hid ho
        clear ho hg hv
        have HNq := HN1q
        clear HN1q
        have HNs := HN1s
        clear HN1s
        have HRV := Lib.hid (HO.out.rdN (n := 13) (by rw [List.length_append, HLB.out]; rfl))
        try simp only [Act.put, List.getElem_toArray, List.getElem_cons_succ, List.getElem_cons_zero, List.setIfInBounds_toArray, List.set_cons_zero, List.set_cons_succ]
        refine reg_fork (rs := [5, 11]) hR (by kernel_rfl) (by simp) ?_
        intro i hi; simp only [List.mem_cons, List.not_mem_nil, or_false] at hi
        rcases hi with rfl | rfl
        · refine ⟨_, rfl, fun K hK => ?_⟩
          try simp only [Act.put, List.getElem_toArray, List.getElem_cons_succ, List.getElem_cons_zero, List.setIfInBounds_toArray, List.set_cons_zero, List.set_cons_succ]
          rw [if_pos (by rfl)]
          try clear HRV
          go_simp
          refine (HRead.out u4 _ _ (rd_own HO.out (by rw [List.length_append, HLB.out]; rfl))).mono ?_; rintro e u5 ⟨A22, n22, c22, rfl, ho, hb⟩
          refine hK.out _ _ (show Below _ _ _ from hb.mono HB.out.size) ?_
          clear hK K
          have HGq := Lib.hid (HGq.out.keep hb)
          have HGs := Lib.hid (HGs.out.keep hb)
          have HNq := Lib.hid (show Value.ownBlock (.slice A22 n22 c22) ≠ some q from fun e => by have h1 := (World.ownsRow.lt ho _ e).1; have h2 := HLq.out; omega)
          have HNs := Lib.hid (show Value.ownBlock (.slice A22 n22 c22) ≠ some s from fun e => by have h1 := (World.ownsRow.lt ho _ e).1; have h2 := HLs.out; omega)
          have HO := Lib.hid (Ow.lower ho HB.out.size)
          clear ho
          have HB := Lib.hid (HB.out.trans (hb.mono HB.out.size))
          clear hb
          have HLq := Lib.hid (show q < u5.heap.size from HGq.out.lt)
          have HLs := Lib.hid (show s < u5.heap.size from HGs.out.lt)
          try simp only [Act.put, List.getElem_toArray, List.getElem_cons_succ, List.getElem_cons_zero, List.setIfInBounds_toArray, List.set_cons_zero, List.set_cons_succ]
          refine reg_take (v := .tuple #[.agg #[.int .u8 9, .slice A22 n22 c22], .int .i64 12, .agg (cs8 N).toArray, .int .i64 0]) hR 6 rfl (by kernel_rfl) (by kernel_rfl) (by kernel_rfl) (fun _ _ _ h => by cases h.1) (by rfl) ?_ ?_
          · intro W hW; go_simp; try with_reducible rfl
          try simp only [Act.put, List.getElem_toArray, List.getElem_cons_succ, List.getElem_cons_zero, List.setIfInBounds_toArray, List.set_cons_zero, List.set_cons_succ]
          refine reg_take (v := .agg #[.int .u8 9, .slice A22 n22 c22]) hR 7 rfl (by kernel_rfl) (by kernel_rfl) (by kernel_rfl) (fun _ _ _ h => by cases h.1) (by rfl) ?_ ?_
          · intro W hW; go_simp; try with_reducible rfl
          try simp only [Act.put, List.getElem_toArray, List.getElem_cons_succ, List.getElem_cons_zero, List.setIfInBounds_toArray, List.set_cons_zero, List.set_cons_succ]
          refine reg_take (v := .int .i64 12) hR 8 rfl (by kernel_rfl) (by kernel_rfl) (by kernel_rfl) (fun _ _ _ h => by cases h.1) (by rfl) ?_ ?_
          · intro W hW; go_simp; try with_reducible rfl
          try simp only [Act.put, List.getElem_toArray, List.getElem_cons_succ, List.getElem_cons_zero, List.setIfInBounds_toArray, List.set_cons_zero, List.set_cons_succ]
          refine reg_take (v := .agg (cs8 N).toArray) hR 9 rfl (by kernel_rfl) (by kernel_rfl) (by kernel_rfl) (fun _ _ _ h => by cases h.1) (by rfl) ?_ ?_
          · intro W hW; go_simp; try with_reducible rfl
          try simp only [Act.put, List.getElem_toArray, List.getElem_cons_succ, List.getElem_cons_zero, List.setIfInBounds_toArray, List.set_cons_zero, List.set_cons_succ]
          refine reg_take (v := .int .i64 0) hR 10 rfl (by kernel_rfl) (by kernel_rfl) (by kernel_rfl) (fun _ _ _ h => by cases h.1) (by rfl) ?_ ?_
          · intro W hW; go_simp; try with_reducible rfl
          try simp only [Act.put, List.getElem_toArray, List.getElem_cons_succ, List.getElem_cons_zero, List.setIfInBounds_toArray, List.set_cons_zero, List.set_cons_succ]
          refine reg_step hR 11 (by kernel_rfl) rfl fun K hK => ?_
          try simp only [Act.put, List.getElem_toArray, List.getElem_cons_succ, List.getElem_cons_zero, List.setIfInBounds_toArray, List.set_cons_zero, List.set_cons_succ]
          rw [if_pos (by rfl)]
          refine wp_alloc_z 31 rfl z31 zero31 ?_
          refine hK.out _ _ ((Below.refl _ _).alloc HB.out.size _) ?_
          clear hK K
          have HGp := Lib.hid (Bk.new u5 z31 31)
          have HXqp := Lib.hid (show q ≠ u5.heap.size from by have h1 := HGq.out.lt; omega)
          have HGq := Lib.hid (HGq.out.old (.cells z31.toArray 31))
          have HXsp := Lib.hid (show s ≠ u5.heap.size from by have h1 := HGs.out.lt; omega)
          have HGs := Lib.hid (HGs.out.old (.cells z31.toArray 31))
          have HNp := Lib.hid (show Value.ownBlock (.slice A22 n22 c22) ≠ some u5.heap.size from fun e => by have h1 := (World.ownsRow.lt HO.out _ e).2; omega)
          have HO := Lib.hid (Ow.alloc HO.out (.cells z31.toArray 31))
          have HTp := Lib.hid (show w5.heap.size ≤ u5.heap.size from HB.out.size)
          have HB := Lib.hid (HB.out.alloc HB.out.size (.cells z31.toArray 31))
          have HLp := Lib.hid (show u5.heap.size < (u5.alloc (.cells z31.toArray 31)).heap.size by simp)
          have HLq := Lib.hid (show q < (u5.alloc (.cells z31.toArray 31)).heap.size by have h1 := HLq.out; have h2 := HLp.out; omega)
          have HLs := Lib.hid (show s < (u5.alloc (.cells z31.toArray 31)).heap.size by have h1 := HLs.out; have h2 := HLp.out; omega)
          generalize hgw : u5.alloc (.cells z31.toArray 31) = u6 at HB HGq HGs HGp HO HLq HLs HLp ⊢
          clear hgw
          generalize hgw : u5.heap.size = p at HGp HTp HLp HXqp HXsp HNp ⊢
          clear hgw
          try simp only [Act.put, List.getElem_toArray, List.getElem_cons_succ, List.getElem_cons_zero, List.setIfInBounds_toArray, List.set_cons_zero, List.set_cons_succ]
          refine reg_step hR 13 (by kernel_rfl) rfl fun K hK => ?_
          try simp only [Act.put, List.getElem_toArray, List.getElem_cons_succ, List.getElem_cons_zero, List.setIfInBounds_toArray, List.set_cons_zero, List.set_cons_succ]
          rw [if_pos (by rfl)]
          refine wp_store_bk 31 _ _ rfl p rfl ([.int .u8 9, .slice A22 n22 c22] : List Value) z31 rfl HGp.out info31 rfl (rec_all _ _ _ _) ?_
          refine hK.out _ _ (below_setRow (Below.refl _ _) HTp.out _) ?_
          clear hK K
          have HGp := Lib.hid (HGp.out.setRow ([.int .u8 9, .slice A22 n22 c22] : List Value))
          have HGq := Lib.hid (HGq.out.other (show q ≠ p from HXqp.out) (([.int .u8 9, .slice A22 n22 c22] : List Value)).toArray)
          have HGs := Lib.hid (HGs.out.other (show s ≠ p from HXsp.out) (([.int .u8 9, .slice A22 n22 c22] : List Value)).toArray)
          have HO := Lib.hid (World.ownsRow.kept HO.out (grown_setRow u6 p (([.int .u8 9, .slice A22 n22 c22] : List Value)).toArray) (.inr HNp.out))
          have HB := Lib.hid (below_setRow HB.out HTp.out (([.int .u8 9, .slice A22 n22 c22] : List Value)).toArray)
          generalize hgw : u6.setRow p (([.int .u8 9, .slice A22 n22 c22] : List Value)).toArray = u7 at HB HGq HGs HGp HO ⊢
          clear hgw
          try simp only [Act.put, List.getElem_toArray, List.getElem_cons_succ, List.getElem_cons_zero, List.setIfInBounds_toArray, List.set_cons_zero, List.set_cons_succ]
          refine reg_take (v := .int .i64 12) hR 14 rfl (by kernel_rfl) (by kernel_rfl) (by kernel_rfl) (fun _ _ _ h => by cases h.1) (by rfl) ?_ ?_
          · intro W hW; go_simp; try with_reducible rfl
          try simp only [Act.put, List.getElem_toArray, List.getElem_cons_succ, List.getElem_cons_zero, List.setIfInBounds_toArray, List.set_cons_zero, List.set_cons_succ]
          refine reg_step hR 15 (by kernel_rfl) rfl fun K hK => ?_
          try simp only [Act.put, List.getElem_toArray, List.getElem_cons_succ, List.getElem_cons_zero, List.setIfInBounds_toArray, List.set_cons_zero, List.set_cons_succ]
          rw [if_pos (by rfl)]
          refine wp_store_bk 23 _ _ rfl q rfl (cs8 N) z36 rfl HGq.out (by rw [HN8.out]; exact info36) (by rw [HN8.out]; exact len_z36) (cs8_all _) ?_
          refine hK.out _ _ (below_setRow (Below.refl _ _) HTq.out _) ?_
          clear hK K
          have HGq := Lib.hid (HGq.out.setRow (cs8 N))
          have HGs := Lib.hid (HGs.out.other (show s ≠ q from HXqs.out.symm) ((cs8 N)).toArray)
          have HGp := Lib.hid (HGp.out.other (show p ≠ q from HXqp.out.symm) ((cs8 N)).toArray)
          have HO := Lib.hid (World.ownsRow.kept HO.out (grown_setRow u7 q ((cs8 N)).toArray) (.inr HNq.out))
          have HB := Lib.hid (below_setRow HB.out HTq.out ((cs8 N)).toArray)
          generalize hgw : u7.setRow q ((cs8 N)).toArray = u8 at HB HGq HGs HGp HO ⊢
          clear hgw
          try simp only [Act.put, List.getElem_toArray, List.getElem_cons_succ, List.getElem_cons_zero, List.setIfInBounds_toArray, List.set_cons_zero, List.set_cons_succ]
          refine reg_take (v := .int .i64 0) hR 16 rfl (by kernel_rfl) (by kernel_rfl) (by kernel_rfl) (fun _ _ _ h => by cases h.1) (by rfl) ?_ ?_
          · intro W hW; go_simp; try with_reducible rfl
          try simp only [Act.put, List.getElem_toArray, List.getElem_cons_succ, List.getElem_cons_zero, List.setIfInBounds_toArray, List.set_cons_zero, List.set_cons_succ]
          refine reg_done (by kernel_rfl) ?_ _
          refine ⟨rfl, p, q, s, v29, A31, c31, A22, n22, c22, ?_, HTp, HTq, Lib.hid HXqp.out.symm, HGp, HGq, HO, HB⟩
          simp only [frame3, puts, List.foldl_cons, List.foldl_nil, Act.put, List.getElem_toArray, List.getElem_cons_succ, List.getElem_cons_zero, List.setIfInBounds_toArray, List.set_cons_zero, List.set_cons_succ]
        · refine ⟨_, rfl, fun K hK => ?_⟩
          try simp only [Act.put, List.getElem_toArray, List.getElem_cons_succ, List.getElem_cons_zero, List.setIfInBounds_toArray, List.set_cons_zero, List.set_cons_succ]
          rw [if_pos (by rfl)]
          refine wp_alloc_z 31 rfl z31 zero31 ?_
          refine hK.out _ _ ((Below.refl _ _).alloc HB.out.size _) ?_
          clear hK K
          have HGp := Lib.hid (Bk.new u4 z31 31)
          have HXqp := Lib.hid (show q ≠ u4.heap.size from by have h1 := HGq.out.lt; omega)
          have HGq := Lib.hid (HGq.out.old (.cells z31.toArray 31))
          have HXsp := Lib.hid (show s ≠ u4.heap.size from by have h1 := HGs.out.lt; omega)
          have HGs := Lib.hid (HGs.out.old (.cells z31.toArray 31))
          have HNp := Lib.hid (show Value.ownBlock (.slice A31 13 c31) ≠ some u4.heap.size from fun e => by have h1 := (World.ownsRow.lt HO.out _ e).2; omega)
          have HO := Lib.hid (Ow.alloc HO.out (.cells z31.toArray 31))
          have HTp := Lib.hid (show w5.heap.size ≤ u4.heap.size from HB.out.size)
          have HB := Lib.hid (HB.out.alloc HB.out.size (.cells z31.toArray 31))
          have HLp := Lib.hid (show u4.heap.size < (u4.alloc (.cells z31.toArray 31)).heap.size by simp)
          have HLq := Lib.hid (show q < (u4.alloc (.cells z31.toArray 31)).heap.size by have h1 := HLq.out; have h2 := HLp.out; omega)
          have HLs := Lib.hid (show s < (u4.alloc (.cells z31.toArray 31)).heap.size by have h1 := HLs.out; have h2 := HLp.out; omega)
          generalize hgw : u4.alloc (.cells z31.toArray 31) = u5 at HB HGq HGs HGp HO HLq HLs HLp ⊢
          clear hgw
          generalize hgw : u4.heap.size = p at HGp HTp HLp HXqp HXsp HNp ⊢
          clear hgw
          try simp only [Act.put, List.getElem_toArray, List.getElem_cons_succ, List.getElem_cons_zero, List.setIfInBounds_toArray, List.set_cons_zero, List.set_cons_succ]
          refine reg_step hR 5 (by kernel_rfl) rfl fun K hK => ?_
          try simp only [Act.put, List.getElem_toArray, List.getElem_cons_succ, List.getElem_cons_zero, List.setIfInBounds_toArray, List.set_cons_zero, List.set_cons_succ]
          rw [if_pos (by rfl)]
          try clear HRV
          go_simp
          refine (HRead.out u5 _ _ (rd_own HO.out (by rw [List.length_append, HLB.out]; rfl))).mono ?_; rintro e u6 ⟨A22, n22, c22, rfl, ho, hb⟩
          refine hK.out _ _ (show Below _ _ _ from hb.mono HB.out.size) ?_
          clear hK K
          have HGq := Lib.hid (HGq.out.keep hb)
          have HGs := Lib.hid (HGs.out.keep hb)
          have HGp := Lib.hid (HGp.out.keep hb)
          have HNq := Lib.hid (show Value.ownBlock (.slice A22 n22 c22) ≠ some q from fun e => by have h1 := (World.ownsRow.lt ho _ e).1; have h2 := HLq.out; omega)
          have HNs := Lib.hid (show Value.ownBlock (.slice A22 n22 c22) ≠ some s from fun e => by have h1 := (World.ownsRow.lt ho _ e).1; have h2 := HLs.out; omega)
          have HNp := Lib.hid (show Value.ownBlock (.slice A22 n22 c22) ≠ some p from fun e => by have h1 := (World.ownsRow.lt ho _ e).1; have h2 := HLp.out; omega)
          have HO := Lib.hid (Ow.lower ho HB.out.size)
          clear ho
          have HB := Lib.hid (HB.out.trans (hb.mono HB.out.size))
          clear hb
          have HLq := Lib.hid (show q < u6.heap.size from HGq.out.lt)
          have HLs := Lib.hid (show s < u6.heap.size from HGs.out.lt)
          have HLp := Lib.hid (show p < u6.heap.size from HGp.out.lt)
          try simp only [Act.put, List.getElem_toArray, List.getElem_cons_succ, List.getElem_cons_zero, List.setIfInBounds_toArray, List.set_cons_zero, List.set_cons_succ]
          refine reg_take (v := .tuple #[.agg #[.int .u8 9, .slice A22 n22 c22], .int .i64 12, .agg (cs8 N).toArray, .int .i64 0]) hR 6 rfl (by kernel_rfl) (by kernel_rfl) (by kernel_rfl) (fun _ _ _ h => by cases h.1) (by rfl) ?_ ?_
          · intro W hW; go_simp; try with_reducible rfl
          try simp only [Act.put, List.getElem_toArray, List.getElem_cons_succ, List.getElem_cons_zero, List.setIfInBounds_toArray, List.set_cons_zero, List.set_cons_succ]
          refine reg_take (v := .agg #[.int .u8 9, .slice A22 n22 c22]) hR 7 rfl (by kernel_rfl) (by kernel_rfl) (by kernel_rfl) (fun _ _ _ h => by cases h.1) (by rfl) ?_ ?_
          · intro W hW; go_simp; try with_reducible rfl
          try simp only [Act.put, List.getElem_toArray, List.getElem_cons_succ, List.getElem_cons_zero, List.setIfInBounds_toArray, List.set_cons_zero, List.set_cons_succ]
          refine reg_take (v := .int .i64 12) hR 8 rfl (by kernel_rfl) (by kernel_rfl) (by kernel_rfl) (fun _ _ _ h => by cases h.1) (by rfl) ?_ ?_
          · intro W hW; go_simp; try with_reducible rfl
          try simp only [Act.put, List.getElem_toArray, List.getElem_cons_succ, List.getElem_cons_zero, List.setIfInBounds_toArray, List.set_cons_zero, List.set_cons_succ]
          refine reg_take (v := .agg (cs8 N).toArray) hR 9 rfl (by kernel_rfl) (by kernel_rfl) (by kernel_rfl) (fun _ _ _ h => by cases h.1) (by rfl) ?_ ?_
          · intro W hW; go_simp; try with_reducible rfl
          try simp only [Act.put, List.getElem_toArray, List.getElem_cons_succ, List.getElem_cons_zero, List.setIfInBounds_toArray, List.set_cons_zero, List.set_cons_succ]
          refine reg_take (v := .int .i64 0) hR 10 rfl (by kernel_rfl) (by kernel_rfl) (by kernel_rfl) (fun _ _ _ h => by cases h.1) (by rfl) ?_ ?_
          · intro W hW; go_simp; try with_reducible rfl
          try simp only [Act.put, List.getElem_toArray, List.getElem_cons_succ, List.getElem_cons_zero, List.setIfInBounds_toArray, List.set_cons_zero, List.set_cons_succ]
          refine reg_step hR 13 (by kernel_rfl) rfl fun K hK => ?_
          try simp only [Act.put, List.getElem_toArray, List.getElem_cons_succ, List.getElem_cons_zero, List.setIfInBounds_toArray, List.set_cons_zero, List.set_cons_succ]
          rw [if_pos (by rfl)]
          refine wp_store_bk 31 _ _ rfl p rfl ([.int .u8 9, .slice A22 n22 c22] : List Value) z31 rfl HGp.out info31 rfl (rec_all _ _ _ _) ?_
          refine hK.out _ _ (below_setRow (Below.refl _ _) HTp.out _) ?_
          clear hK K
          have HGp := Lib.hid (HGp.out.setRow ([.int .u8 9, .slice A22 n22 c22] : List Value))
          have HGq := Lib.hid (HGq.out.other (show q ≠ p from HXqp.out) (([.int .u8 9, .slice A22 n22 c22] : List Value)).toArray)
          have HGs := Lib.hid (HGs.out.other (show s ≠ p from HXsp.out) (([.int .u8 9, .slice A22 n22 c22] : List Value)).toArray)
          have HO := Lib.hid (World.ownsRow.kept HO.out (grown_setRow u6 p (([.int .u8 9, .slice A22 n22 c22] : List Value)).toArray) (.inr HNp.out))
          have HB := Lib.hid (below_setRow HB.out HTp.out (([.int .u8 9, .slice A22 n22 c22] : List Value)).toArray)
          generalize hgw : u6.setRow p (([.int .u8 9, .slice A22 n22 c22] : List Value)).toArray = u7 at HB HGq HGs HGp HO ⊢
          clear hgw
          try simp only [Act.put, List.getElem_toArray, List.getElem_cons_succ, List.getElem_cons_zero, List.setIfInBounds_toArray, List.set_cons_zero, List.set_cons_succ]
          refine reg_take (v := .int .i64 12) hR 14 rfl (by kernel_rfl) (by kernel_rfl) (by kernel_rfl) (fun _ _ _ h => by cases h.1) (by rfl) ?_ ?_
          · intro W hW; go_simp; try with_reducible rfl
          try simp only [Act.put, List.getElem_toArray, List.getElem_cons_succ, List.getElem_cons_zero, List.setIfInBounds_toArray, List.set_cons_zero, List.set_cons_succ]
          refine reg_step hR 15 (by kernel_rfl) rfl fun K hK => ?_
          try simp only [Act.put, List.getElem_toArray, List.getElem_cons_succ, List.getElem_cons_zero, List.setIfInBounds_toArray, List.set_cons_zero, List.set_cons_succ]
          rw [if_pos (by rfl)]
          refine wp_store_bk 23 _ _ rfl q rfl (cs8 N) z36 rfl HGq.out (by rw [HN8.out]; exact info36) (by rw [HN8.out]; exact len_z36) (cs8_all _) ?_
          refine hK.out _ _ (below_setRow (Below.refl _ _) HTq.out _) ?_
          clear hK K
          have HGq := Lib.hid (HGq.out.setRow (cs8 N))
          have HGs := Lib.hid (HGs.out.other (show s ≠ q from HXqs.out.symm) ((cs8 N)).toArray)
          have HGp := Lib.hid (HGp.out.other (show p ≠ q from HXqp.out.symm) ((cs8 N)).toArray)
          have HO := Lib.hid (World.ownsRow.kept HO.out (grown_setRow u7 q ((cs8 N)).toArray) (.inr HNq.out))
          have HB := Lib.hid (below_setRow HB.out HTq.out ((cs8 N)).toArray)
          generalize hgw : u7.setRow q ((cs8 N)).toArray = u8 at HB HGq HGs HGp HO ⊢
          clear hgw
          try simp only [Act.put, List.getElem_toArray, List.getElem_cons_succ, List.getElem_cons_zero, List.setIfInBounds_toArray, List.set_cons_zero, List.set_cons_succ]
          refine reg_take (v := .int .i64 0) hR 16 rfl (by kernel_rfl) (by kernel_rfl) (by kernel_rfl) (fun _ _ _ h => by cases h.1) (by rfl) ?_ ?_
          · intro W hW; go_simp; try with_reducible rfl
          try simp only [Act.put, List.getElem_toArray, List.getElem_cons_succ, List.getElem_cons_zero, List.setIfInBounds_toArray, List.set_cons_zero, List.set_cons_succ]
          refine reg_done (by kernel_rfl) ?_ _
          refine ⟨rfl, p, q, s, v29, A31, c31, A22, n22, c22, ?_, HTp, HTq, Lib.hid HXqp.out.symm, HGp, HGq, HO, HB⟩
          simp only [frame3, puts, List.foldl_cons, List.foldl_nil, Act.put, List.getElem_toArray, List.getElem_cons_succ, List.getElem_cons_zero, List.setIfInBounds_toArray, List.set_cons_zero, List.set_cons_succ]
      · refine ⟨_, rfl, fun K hK => ?_⟩
        try simp only [Act.put, List.getElem_toArray, List.getElem_cons_succ, List.getElem_cons_zero, List.setIfInBounds_toArray, List.set_cons_zero, List.set_cons_succ]
        rw [if_pos (by rfl)]
        refine wp_alloc_z 31 rfl z31 zero31 ?_
        refine hK.out _ _ ((Below.refl _ _).alloc HB.out.size _) ?_
        clear hK K
        have HGp := Lib.hid (Bk.new u3 z31 31)
        have HXqp := Lib.hid (show q ≠ u3.heap.size from by have h1 := HGq.out.lt; omega)
        have HGq := Lib.hid (HGq.out.old (.cells z31.toArray 31))
        have HXsp := Lib.hid (show s ≠ u3.heap.size from by have h1 := HGs.out.lt; omega)
        have HGs := Lib.hid (HGs.out.old (.cells z31.toArray 31))
        have HNp := Lib.hid (show Value.ownBlock (v29) ≠ some u3.heap.size from fun e => by have h1 := (World.ownsRow.lt HO.out _ e).2; omega)
        have HO := Lib.hid (Ow.alloc HO.out (.cells z31.toArray 31))
        have HTp := Lib.hid (show w5.heap.size ≤ u3.heap.size from HB.out.size)
        have HB := Lib.hid (HB.out.alloc HB.out.size (.cells z31.toArray 31))
        have HLp := Lib.hid (show u3.heap.size < (u3.alloc (.cells z31.toArray 31)).heap.size by simp)
        have HLq := Lib.hid (show q < (u3.alloc (.cells z31.toArray 31)).heap.size by have h1 := HLq.out; have h2 := HLp.out; omega)
        have HLs := Lib.hid (show s < (u3.alloc (.cells z31.toArray 31)).heap.size by have h1 := HLs.out; have h2 := HLp.out; omega)
        generalize hgw : u3.alloc (.cells z31.toArray 31) = u4 at HB HGq HGs HGp HO HLq HLs HLp ⊢
        clear hgw
        generalize hgw : u3.heap.size = p at HGp HTp HLp HXqp HXsp HNp ⊢
        clear hgw
        try simp only [Act.put, List.getElem_toArray, List.getElem_cons_succ, List.getElem_cons_zero, List.setIfInBounds_toArray, List.set_cons_zero, List.set_cons_succ]
        refine reg_step hR 4 (by kernel_rfl) rfl fun K hK => ?_
        try simp only [Act.put, List.getElem_toArray, List.getElem_cons_succ, List.getElem_cons_zero, List.setIfInBounds_toArray, List.set_cons_zero, List.set_cons_succ]
        rw [if_pos (by rfl)]
        refine wp_app2 _ _ rfl rfl HO.out rfl (rd7 HGs.out) (by rw [HLB.out]; omega) HB.out.size ?_
        intro v31 u5 ho hg hv
        refine hK.out _ _ (show Below _ _ _ from ⟨hg.os, hg.tape, hg.output, hg.size, fun i hi => hg.block i (Nat.lt_of_lt_of_le hi HB.out.size) (fun e => by have h1 := (World.ownsRow.lt HO.out _ e.symm).1; omega)⟩) ?_
        clear hK K
        have HB := Lib.hid (HB.out.trans (show Below w5.heap.size u4 u5 from ⟨hg.os, hg.tape, hg.output, hg.size, fun i hi => hg.block i (Nat.lt_of_lt_of_le hi HB.out.size) (fun e => by have h1 := (World.ownsRow.lt HO.out _ e.symm).1; omega)⟩))
        have HN1q := Lib.hid (own_ne hv HNq.out HGq.out.lt)
        have HGq := Lib.hid (Bk.grow HGq.out hg HNq.out)
        have HLq := Lib.hid (show q < u5.heap.size from HGq.out.lt)
        have HN1s := Lib.hid (own_ne hv HNs.out HGs.out.lt)
        have HGs := Lib.hid (Bk.grow HGs.out hg HNs.out)
        have HLs := Lib.hid (show s < u5.heap.size from HGs.out.lt)
        have HN1p := Lib.hid (own_ne hv HNp.out HGp.out.lt)
        have HGp := Lib.hid (Bk.grow HGp.out hg HNp.out)
        have HLp := Lib.hid (show p < u5.heap.size from HGp.out.lt)
        obtain ⟨A31, c31, ev, -⟩ := ho.rdN (n := 13) (by rw [List.length_append, HLB.out]; rfl)
        subst ev
        have HO := Lib.hid ho
        clear ho hg hv
        have HNq := HN1q
        clear HN1q
        have HNs := HN1s
        clear HN1s
        have HNp := HN1p
        clear HN1p
        have HRV := Lib.hid (HO.out.rdN (n := 13) (by rw [List.length_append, HLB.out]; rfl))
        try simp only [Act.put, List.getElem_toArray, List.getElem_cons_succ, List.getElem_cons_zero, List.setIfInBounds_toArray, List.set_cons_zero, List.set_cons_succ]
        refine reg_step hR 5 (by kernel_rfl) rfl fun K hK => ?_
        try simp only [Act.put, List.getElem_toArray, List.getElem_cons_succ, List.getElem_cons_zero, List.setIfInBounds_toArray, List.set_cons_zero, List.set_cons_succ]
        rw [if_pos (by rfl)]
        try clear HRV
        go_simp
        refine (HRead.out u5 _ _ (rd_own HO.out (by rw [List.length_append, HLB.out]; rfl))).mono ?_; rintro e u6 ⟨A22, n22, c22, rfl, ho, hb⟩
        refine hK.out _ _ (show Below _ _ _ from hb.mono HB.out.size) ?_
        clear hK K
        have HGq := Lib.hid (HGq.out.keep hb)
        have HGs := Lib.hid (HGs.out.keep hb)
        have HGp := Lib.hid (HGp.out.keep hb)
        have HNq := Lib.hid (show Value.ownBlock (.slice A22 n22 c22) ≠ some q from fun e => by have h1 := (World.ownsRow.lt ho _ e).1; have h2 := HLq.out; omega)
        have HNs := Lib.hid (show Value.ownBlock (.slice A22 n22 c22) ≠ some s from fun e => by have h1 := (World.ownsRow.lt ho _ e).1; have h2 := HLs.out; omega)
        have HNp := Lib.hid (show Value.ownBlock (.slice A22 n22 c22) ≠ some p from fun e => by have h1 := (World.ownsRow.lt ho _ e).1; have h2 := HLp.out; omega)
        have HO := Lib.hid (Ow.lower ho HB.out.size)
        clear ho
        have HB := Lib.hid (HB.out.trans (hb.mono HB.out.size))
        clear hb
        have HLq := Lib.hid (show q < u6.heap.size from HGq.out.lt)
        have HLs := Lib.hid (show s < u6.heap.size from HGs.out.lt)
        have HLp := Lib.hid (show p < u6.heap.size from HGp.out.lt)
        try simp only [Act.put, List.getElem_toArray, List.getElem_cons_succ, List.getElem_cons_zero, List.setIfInBounds_toArray, List.set_cons_zero, List.set_cons_succ]
        refine reg_take (v := .tuple #[.agg #[.int .u8 9, .slice A22 n22 c22], .int .i64 12, .agg (cs8 N).toArray, .int .i64 0]) hR 6 rfl (by kernel_rfl) (by kernel_rfl) (by kernel_rfl) (fun _ _ _ h => by cases h.1) (by rfl) ?_ ?_
        · intro W hW; go_simp; try with_reducible rfl
        try simp only [Act.put, List.getElem_toArray, List.getElem_cons_succ, List.getElem_cons_zero, List.setIfInBounds_toArray, List.set_cons_zero, List.set_cons_succ]
        refine reg_take (v := .agg #[.int .u8 9, .slice A22 n22 c22]) hR 7 rfl (by kernel_rfl) (by kernel_rfl) (by kernel_rfl) (fun _ _ _ h => by cases h.1) (by rfl) ?_ ?_
        · intro W hW; go_simp; try with_reducible rfl
        try simp only [Act.put, List.getElem_toArray, List.getElem_cons_succ, List.getElem_cons_zero, List.setIfInBounds_toArray, List.set_cons_zero, List.set_cons_succ]
        refine reg_take (v := .int .i64 12) hR 8 rfl (by kernel_rfl) (by kernel_rfl) (by kernel_rfl) (fun _ _ _ h => by cases h.1) (by rfl) ?_ ?_
        · intro W hW; go_simp; try with_reducible rfl
        try simp only [Act.put, List.getElem_toArray, List.getElem_cons_succ, List.getElem_cons_zero, List.setIfInBounds_toArray, List.set_cons_zero, List.set_cons_succ]
        refine reg_take (v := .agg (cs8 N).toArray) hR 9 rfl (by kernel_rfl) (by kernel_rfl) (by kernel_rfl) (fun _ _ _ h => by cases h.1) (by rfl) ?_ ?_
        · intro W hW; go_simp; try with_reducible rfl
        try simp only [Act.put, List.getElem_toArray, List.getElem_cons_succ, List.getElem_cons_zero, List.setIfInBounds_toArray, List.set_cons_zero, List.set_cons_succ]
        refine reg_take (v := .int .i64 0) hR 10 rfl (by kernel_rfl) (by kernel_rfl) (by kernel_rfl) (fun _ _ _ h => by cases h.1) (by rfl) ?_ ?_
        · intro W hW; go_simp; try with_reducible rfl
        try simp only [Act.put, List.getElem_toArray, List.getElem_cons_succ, List.getElem_cons_zero, List.setIfInBounds_toArray, List.set_cons_zero, List.set_cons_succ]
        refine reg_step hR 13 (by kernel_rfl) rfl fun K hK => ?_
        try simp only [Act.put, List.getElem_toArray, List.getElem_cons_succ, List.getElem_cons_zero, List.setIfInBounds_toArray, List.set_cons_zero, List.set_cons_succ]
        rw [if_pos (by rfl)]
        refine wp_store_bk 31 _ _ rfl p rfl ([.int .u8 9, .slice A22 n22 c22] : List Value) z31 rfl HGp.out info31 rfl (rec_all _ _ _ _) ?_
        refine hK.out _ _ (below_setRow (Below.refl _ _) HTp.out _) ?_
        clear hK K
        have HGp := Lib.hid (HGp.out.setRow ([.int .u8 9, .slice A22 n22 c22] : List Value))
        have HGq := Lib.hid (HGq.out.other (show q ≠ p from HXqp.out) (([.int .u8 9, .slice A22 n22 c22] : List Value)).toArray)
        have HGs := Lib.hid (HGs.out.other (show s ≠ p from HXsp.out) (([.int .u8 9, .slice A22 n22 c22] : List Value)).toArray)
        have HO := Lib.hid (World.ownsRow.kept HO.out (grown_setRow u6 p (([.int .u8 9, .slice A22 n22 c22] : List Value)).toArray) (.inr HNp.out))
        have HB := Lib.hid (below_setRow HB.out HTp.out (([.int .u8 9, .slice A22 n22 c22] : List Value)).toArray)
        generalize hgw : u6.setRow p (([.int .u8 9, .slice A22 n22 c22] : List Value)).toArray = u7 at HB HGq HGs HGp HO ⊢
        clear hgw
        try simp only [Act.put, List.getElem_toArray, List.getElem_cons_succ, List.getElem_cons_zero, List.setIfInBounds_toArray, List.set_cons_zero, List.set_cons_succ]
        refine reg_take (v := .int .i64 12) hR 14 rfl (by kernel_rfl) (by kernel_rfl) (by kernel_rfl) (fun _ _ _ h => by cases h.1) (by rfl) ?_ ?_
        · intro W hW; go_simp; try with_reducible rfl
        try simp only [Act.put, List.getElem_toArray, List.getElem_cons_succ, List.getElem_cons_zero, List.setIfInBounds_toArray, List.set_cons_zero, List.set_cons_succ]
        refine reg_step hR 15 (by kernel_rfl) rfl fun K hK => ?_
        try simp only [Act.put, List.getElem_toArray, List.getElem_cons_succ, List.getElem_cons_zero, List.setIfInBounds_toArray, List.set_cons_zero, List.set_cons_succ]
        rw [if_pos (by rfl)]
        refine wp_store_bk 23 _ _ rfl q rfl (cs8 N) z36 rfl HGq.out (by rw [HN8.out]; exact info36) (by rw [HN8.out]; exact len_z36) (cs8_all _) ?_
        refine hK.out _ _ (below_setRow (Below.refl _ _) HTq.out _) ?_
        clear hK K
        have HGq := Lib.hid (HGq.out.setRow (cs8 N))
        have HGs := Lib.hid (HGs.out.other (show s ≠ q from HXqs.out.symm) ((cs8 N)).toArray)
        have HGp := Lib.hid (HGp.out.other (show p ≠ q from HXqp.out.symm) ((cs8 N)).toArray)
        have HO := Lib.hid (World.ownsRow.kept HO.out (grown_setRow u7 q ((cs8 N)).toArray) (.inr HNq.out))
        have HB := Lib.hid (below_setRow HB.out HTq.out ((cs8 N)).toArray)
        generalize hgw : u7.setRow q ((cs8 N)).toArray = u8 at HB HGq HGs HGp HO ⊢
        clear hgw
        try simp only [Act.put, List.getElem_toArray, List.getElem_cons_succ, List.getElem_cons_zero, List.setIfInBounds_toArray, List.set_cons_zero, List.set_cons_succ]
        refine reg_take (v := .int .i64 0) hR 16 rfl (by kernel_rfl) (by kernel_rfl) (by kernel_rfl) (fun _ _ _ h => by cases h.1) (by rfl) ?_ ?_
        · intro W hW; go_simp; try with_reducible rfl
        try simp only [Act.put, List.getElem_toArray, List.getElem_cons_succ, List.getElem_cons_zero, List.setIfInBounds_toArray, List.set_cons_zero, List.set_cons_succ]
        refine reg_done (by kernel_rfl) ?_ _
        refine ⟨rfl, p, q, s, v29, A31, c31, A22, n22, c22, ?_, HTp, HTq, Lib.hid HXqp.out.symm, HGp, HGq, HO, HB⟩
        simp only [frame3, puts, List.foldl_cons, List.foldl_nil, Act.put, List.getElem_toArray, List.getElem_cons_succ, List.getElem_cons_zero, List.setIfInBounds_toArray, List.set_cons_zero, List.set_cons_succ]
    · refine ⟨_, rfl, fun K hK => ?_⟩
      try simp only [Act.put, List.getElem_toArray, List.getElem_cons_succ, List.getElem_cons_zero, List.setIfInBounds_toArray, List.set_cons_zero, List.set_cons_succ]
      rw [if_pos (by rfl)]
      refine wp_alloc_z 31 rfl z31 zero31 ?_
      refine hK.out _ _ ((Below.refl _ _).alloc HB.out.size _) ?_
      clear hK K
      have HGp := Lib.hid (Bk.new u2 z31 31)
      have HXqp := Lib.hid (show q ≠ u2.heap.size from by have h1 := HGq.out.lt; omega)
      have HGq := Lib.hid (HGq.out.old (.cells z31.toArray 31))
      have HNp := Lib.hid (show Value.ownBlock (v29) ≠ some u2.heap.size from fun e => by have h1 := (World.ownsRow.lt HO.out _ e).2; omega)
      have HO := Lib.hid (Ow.alloc HO.out (.cells z31.toArray 31))
      have HTp := Lib.hid (show w5.heap.size ≤ u2.heap.size from HB.out.size)
      have HB := Lib.hid (HB.out.alloc HB.out.size (.cells z31.toArray 31))
      have HLp := Lib.hid (show u2.heap.size < (u2.alloc (.cells z31.toArray 31)).heap.size by simp)
      have HLq := Lib.hid (show q < (u2.alloc (.cells z31.toArray 31)).heap.size by have h1 := HLq.out; have h2 := HLp.out; omega)
      generalize hgw : u2.alloc (.cells z31.toArray 31) = u3 at HB HGq HGp HO HLq HLp ⊢
      clear hgw
      generalize hgw : u2.heap.size = p at HGp HTp HLp HXqp HNp ⊢
      clear hgw
      try simp only [Act.put, List.getElem_toArray, List.getElem_cons_succ, List.getElem_cons_zero, List.setIfInBounds_toArray, List.set_cons_zero, List.set_cons_succ]
      refine reg_step hR 3 (by kernel_rfl) rfl fun K hK => ?_
      try simp only [Act.put, List.getElem_toArray, List.getElem_cons_succ, List.getElem_cons_zero, List.setIfInBounds_toArray, List.set_cons_zero, List.set_cons_succ]
      rw [if_pos (by rfl)]
      go_simp
      refine hK.out _ _ ((Below.refl _ _).alloc HB.out.size _) ?_
      clear hK K
      have HGs := Lib.hid (Bk.new u3 ([.int .u8 7] : List Value) 5)
      have HXqs := Lib.hid (show q ≠ u3.heap.size from by have h1 := HGq.out.lt; omega)
      have HGq := Lib.hid (HGq.out.old (.cells ([.int .u8 7] : List Value).toArray 5))
      have HXps := Lib.hid (show p ≠ u3.heap.size from by have h1 := HGp.out.lt; omega)
      have HGp := Lib.hid (HGp.out.old (.cells ([.int .u8 7] : List Value).toArray 5))
      have HNs := Lib.hid (show Value.ownBlock (v29) ≠ some u3.heap.size from fun e => by have h1 := (World.ownsRow.lt HO.out _ e).2; omega)
      have HO := Lib.hid (Ow.alloc HO.out (.cells ([.int .u8 7] : List Value).toArray 5))
      have HTs := Lib.hid (show w5.heap.size ≤ u3.heap.size from HB.out.size)
      have HB := Lib.hid (HB.out.alloc HB.out.size (.cells ([.int .u8 7] : List Value).toArray 5))
      have HLs := Lib.hid (show u3.heap.size < (u3.alloc (.cells ([.int .u8 7] : List Value).toArray 5)).heap.size by simp)
      have HLq := Lib.hid (show q < (u3.alloc (.cells ([.int .u8 7] : List Value).toArray 5)).heap.size by have h1 := HLq.out; have h2 := HLs.out; omega)
      have HLp := Lib.hid (show p < (u3.alloc (.cells ([.int .u8 7] : List Value).toArray 5)).heap.size by have h1 := HLp.out; have h2 := HLs.out; omega)
      generalize hgw : u3.alloc (.cells ([.int .u8 7] : List Value).toArray 5) = u4 at HB HGq HGp HGs HO HLq HLp HLs ⊢
      clear hgw
      generalize hgw : u3.heap.size = s at HGs HTs HLs HXqs HXps HNs ⊢
      clear hgw
      try simp only [Act.put, List.getElem_toArray, List.getElem_cons_succ, List.getElem_cons_zero, List.setIfInBounds_toArray, List.set_cons_zero, List.set_cons_succ]
      refine reg_step hR 4 (by kernel_rfl) rfl fun K hK => ?_
      try simp only [Act.put, List.getElem_toArray, List.getElem_cons_succ, List.getElem_cons_zero, List.setIfInBounds_toArray, List.set_cons_zero, List.set_cons_succ]
      rw [if_pos (by rfl)]
      refine wp_app2 _ _ rfl rfl HO.out rfl (rd7 HGs.out) (by rw [HLB.out]; omega) HB.out.size ?_
      intro v31 u5 ho hg hv
      refine hK.out _ _ (show Below _ _ _ from ⟨hg.os, hg.tape, hg.output, hg.size, fun i hi => hg.block i (Nat.lt_of_lt_of_le hi HB.out.size) (fun e => by have h1 := (World.ownsRow.lt HO.out _ e.symm).1; omega)⟩) ?_
      clear hK K
      have HB := Lib.hid (HB.out.trans (show Below w5.heap.size u4 u5 from ⟨hg.os, hg.tape, hg.output, hg.size, fun i hi => hg.block i (Nat.lt_of_lt_of_le hi HB.out.size) (fun e => by have h1 := (World.ownsRow.lt HO.out _ e.symm).1; omega)⟩))
      have HN1q := Lib.hid (own_ne hv HNq.out HGq.out.lt)
      have HGq := Lib.hid (Bk.grow HGq.out hg HNq.out)
      have HLq := Lib.hid (show q < u5.heap.size from HGq.out.lt)
      have HN1p := Lib.hid (own_ne hv HNp.out HGp.out.lt)
      have HGp := Lib.hid (Bk.grow HGp.out hg HNp.out)
      have HLp := Lib.hid (show p < u5.heap.size from HGp.out.lt)
      have HN1s := Lib.hid (own_ne hv HNs.out HGs.out.lt)
      have HGs := Lib.hid (Bk.grow HGs.out hg HNs.out)
      have HLs := Lib.hid (show s < u5.heap.size from HGs.out.lt)
      obtain ⟨A31, c31, ev, -⟩ := ho.rdN (n := 13) (by rw [List.length_append, HLB.out]; rfl)
      subst ev
      have HO := Lib.hid ho
      clear ho hg hv
      have HNq := HN1q
      clear HN1q
      have HNp := HN1p
      clear HN1p
      have HNs := HN1s
      clear HN1s
      have HRV := Lib.hid (HO.out.rdN (n := 13) (by rw [List.length_append, HLB.out]; rfl))
      try simp only [Act.put, List.getElem_toArray, List.getElem_cons_succ, List.getElem_cons_zero, List.setIfInBounds_toArray, List.set_cons_zero, List.set_cons_succ]
      refine reg_step hR 5 (by kernel_rfl) rfl fun K hK => ?_
      try simp only [Act.put, List.getElem_toArray, List.getElem_cons_succ, List.getElem_cons_zero, List.setIfInBounds_toArray, List.set_cons_zero, List.set_cons_succ]
      rw [if_pos (by rfl)]
      try clear HRV
      go_simp
      refine (HRead.out u5 _ _ (rd_own HO.out (by rw [List.length_append, HLB.out]; rfl))).mono ?_; rintro e u6 ⟨A22, n22, c22, rfl, ho, hb⟩
      refine hK.out _ _ (show Below _ _ _ from hb.mono HB.out.size) ?_
      clear hK K
      have HGq := Lib.hid (HGq.out.keep hb)
      have HGp := Lib.hid (HGp.out.keep hb)
      have HGs := Lib.hid (HGs.out.keep hb)
      have HNq := Lib.hid (show Value.ownBlock (.slice A22 n22 c22) ≠ some q from fun e => by have h1 := (World.ownsRow.lt ho _ e).1; have h2 := HLq.out; omega)
      have HNp := Lib.hid (show Value.ownBlock (.slice A22 n22 c22) ≠ some p from fun e => by have h1 := (World.ownsRow.lt ho _ e).1; have h2 := HLp.out; omega)
      have HNs := Lib.hid (show Value.ownBlock (.slice A22 n22 c22) ≠ some s from fun e => by have h1 := (World.ownsRow.lt ho _ e).1; have h2 := HLs.out; omega)
      have HO := Lib.hid (Ow.lower ho HB.out.size)
      clear ho
      have HB := Lib.hid (HB.out.trans (hb.mono HB.out.size))
      clear hb
      have HLq := Lib.hid (show q < u6.heap.size from HGq.out.lt)
      have HLp := Lib.hid (show p < u6.heap.size from HGp.out.lt)
      have HLs := Lib.hid (show s < u6.heap.size from HGs.out.lt)
      try simp only [Act.put, List.getElem_toArray, List.getElem_cons_succ, List.getElem_cons_zero, List.setIfInBounds_toArray, List.set_cons_zero, List.set_cons_succ]
      refine reg_take (v := .tuple #[.agg #[.int .u8 9, .slice A22 n22 c22], .int .i64 12, .agg (cs8 N).toArray, .int .i64 0]) hR 6 rfl (by kernel_rfl) (by kernel_rfl) (by kernel_rfl) (fun _ _ _ h => by cases h.1) (by rfl) ?_ ?_
      · intro W hW; go_simp; try with_reducible rfl
      try simp only [Act.put, List.getElem_toArray, List.getElem_cons_succ, List.getElem_cons_zero, List.setIfInBounds_toArray, List.set_cons_zero, List.set_cons_succ]
      refine reg_take (v := .agg #[.int .u8 9, .slice A22 n22 c22]) hR 7 rfl (by kernel_rfl) (by kernel_rfl) (by kernel_rfl) (fun _ _ _ h => by cases h.1) (by rfl) ?_ ?_
      · intro W hW; go_simp; try with_reducible rfl
      try simp only [Act.put, List.getElem_toArray, List.getElem_cons_succ, List.getElem_cons_zero, List.setIfInBounds_toArray, List.set_cons_zero, List.set_cons_succ]
      refine reg_take (v := .int .i64 12) hR 8 rfl (by kernel_rfl) (by kernel_rfl) (by kernel_rfl) (fun _ _ _ h => by cases h.1) (by rfl) ?_ ?_
      · intro W hW; go_simp; try with_reducible rfl
      try simp only [Act.put, List.getElem_toArray, List.getElem_cons_succ, List.getElem_cons_zero, List.setIfInBounds_toArray, List.set_cons_zero, List.set_cons_succ]
      refine reg_take (v := .agg (cs8 N).toArray) hR 9 rfl (by kernel_rfl) (by kernel_rfl) (by kernel_rfl) (fun _ _ _ h => by cases h.1) (by rfl) ?_ ?_
      · intro W hW; go_simp; try with_reducible rfl
      try simp only [Act.put, List.getElem_toArray, List.getElem_cons_succ, List.getElem_cons_zero, List.setIfInBounds_toArray, List.set_cons_zero, List.set_cons_succ]
      refine reg_take (v := .int .i64 0) hR 10 rfl (by kernel_rfl) (by kernel_rfl) (by kernel_rfl) (fun _ _ _ h => by cases h.1) (by rfl) ?_ ?_
      · intro W hW; go_simp; try with_reducible rfl
      try simp only [Act.put, List.getElem_toArray, List.getElem_cons_succ, List.getElem_cons_zero, List.setIfInBounds_toArray, List.set_cons_zero, List.set_cons_succ]
      refine reg_step hR 13 (by kernel_rfl) rfl fun K hK => ?_
      try simp only [Act.put, List.getElem_toArray, List.getElem_cons_succ, List.getElem_cons_zero, List.setIfInBounds_toArray, List.set_cons_zero, List.set_cons_succ]
      rw [if_pos (by rfl)]
      refine wp_store_bk 31 _ _ rfl p rfl ([.int .u8 9, .slice A22 n22 c22] : List Value) z31 rfl HGp.out info31 rfl (rec_all _ _ _ _) ?_
      refine hK.out _ _ (below_setRow (Below.refl _ _) HTp.out _) ?_
      clear hK K
      have HGp := Lib.hid (HGp.out.setRow ([.int .u8 9, .slice A22 n22 c22] : List Value))
      have HGq := Lib.hid (HGq.out.other (show q ≠ p from HXqp.out) (([.int .u8 9, .slice A22 n22 c22] : List Value)).toArray)
      have HGs := Lib.hid (HGs.out.other (show s ≠ p from HXps.out.symm) (([.int .u8 9, .slice A22 n22 c22] : List Value)).toArray)
      have HO := Lib.hid (World.ownsRow.kept HO.out (grown_setRow u6 p (([.int .u8 9, .slice A22 n22 c22] : List Value)).toArray) (.inr HNp.out))
      have HB := Lib.hid (below_setRow HB.out HTp.out (([.int .u8 9, .slice A22 n22 c22] : List Value)).toArray)
      generalize hgw : u6.setRow p (([.int .u8 9, .slice A22 n22 c22] : List Value)).toArray = u7 at HB HGq HGp HGs HO ⊢
      clear hgw
      try simp only [Act.put, List.getElem_toArray, List.getElem_cons_succ, List.getElem_cons_zero, List.setIfInBounds_toArray, List.set_cons_zero, List.set_cons_succ]
      refine reg_take (v := .int .i64 12) hR 14 rfl (by kernel_rfl) (by kernel_rfl) (by kernel_rfl) (fun _ _ _ h => by cases h.1) (by rfl) ?_ ?_
      · intro W hW; go_simp; try with_reducible rfl
      try simp only [Act.put, List.getElem_toArray, List.getElem_cons_succ, List.getElem_cons_zero, List.setIfInBounds_toArray, List.set_cons_zero, List.set_cons_succ]
      refine reg_step hR 15 (by kernel_rfl) rfl fun K hK => ?_
      try simp only [Act.put, List.getElem_toArray, List.getElem_cons_succ, List.getElem_cons_zero, List.setIfInBounds_toArray, List.set_cons_zero, List.set_cons_succ]
      rw [if_pos (by rfl)]
      refine wp_store_bk 23 _ _ rfl q rfl (cs8 N) z36 rfl HGq.out (by rw [HN8.out]; exact info36) (by rw [HN8.out]; exact len_z36) (cs8_all _) ?_
      refine hK.out _ _ (below_setRow (Below.refl _ _) HTq.out _) ?_
      clear hK K
      have HGq := Lib.hid (HGq.out.setRow (cs8 N))
      have HGp := Lib.hid (HGp.out.other (show p ≠ q from HXqp.out.symm) ((cs8 N)).toArray)
      have HGs := Lib.hid (HGs.out.other (show s ≠ q from HXqs.out.symm) ((cs8 N)).toArray)
      have HO := Lib.hid (World.ownsRow.kept HO.out (grown_setRow u7 q ((cs8 N)).toArray) (.inr HNq.out))
      have HB := Lib.hid (below_setRow HB.out HTq.out ((cs8 N)).toArray)
      generalize hgw : u7.setRow q ((cs8 N)).toArray = u8 at HB HGq HGp HGs HO ⊢
      clear hgw
      try simp only [Act.put, List.getElem_toArray, List.getElem_cons_succ, List.getElem_cons_zero, List.setIfInBounds_toArray, List.set_cons_zero, List.set_cons_succ]
      refine reg_take (v := .int .i64 0) hR 16 rfl (by kernel_rfl) (by kernel_rfl) (by kernel_rfl) (fun _ _ _ h => by cases h.1) (by rfl) ?_ ?_
      · intro W hW; go_simp; try with_reducible rfl
      try simp only [Act.put, List.getElem_toArray, List.getElem_cons_succ, List.getElem_cons_zero, List.setIfInBounds_toArray, List.set_cons_zero, List.set_cons_succ]
      refine reg_done (by kernel_rfl) ?_ _
      refine ⟨rfl, p, q, s, v29, A31, c31, A22, n22, c22, ?_, HTp, HTq, Lib.hid HXqp.out.symm, HGp, HGq, HO, HB⟩
      simp only [frame3, puts, List.foldl_cons, List.foldl_nil, Act.put, List.getElem_toArray, List.getElem_cons_succ, List.getElem_cons_zero, List.setIfInBounds_toArray, List.set_cons_zero, List.set_cons_succ]
  · refine ⟨_, rfl, fun K hK => ?_⟩
    try simp only [Act.put, List.getElem_toArray, List.getElem_cons_succ, List.getElem_cons_zero, List.setIfInBounds_toArray, List.set_cons_zero, List.set_cons_succ]
    rw [if_pos (by rfl)]
    go_simp
    refine hK.out _ _ ((Below.refl _ _).alloc HB.out.size _) ?_
    clear hK K
    have HGs := Lib.hid (Bk.new u1 ([.int .u8 7] : List Value) 5)
    have HXqs := Lib.hid (show q ≠ u1.heap.size from by have h1 := HGq.out.lt; omega)
    have HGq := Lib.hid (HGq.out.old (.cells ([.int .u8 7] : List Value).toArray 5))
    have HTs := Lib.hid (show w5.heap.size ≤ u1.heap.size from HB.out.size)
    have HB := Lib.hid (HB.out.alloc HB.out.size (.cells ([.int .u8 7] : List Value).toArray 5))
    have HLs := Lib.hid (show u1.heap.size < (u1.alloc (.cells ([.int .u8 7] : List Value).toArray 5)).heap.size by simp)
    have HLq := Lib.hid (show q < (u1.alloc (.cells ([.int .u8 7] : List Value).toArray 5)).heap.size by have h1 := HLq.out; have h2 := HLs.out; omega)
    generalize hgw : u1.alloc (.cells ([.int .u8 7] : List Value).toArray 5) = u2 at HB HGq HGs HLq HLs ⊢
    clear hgw
    generalize hgw : u1.heap.size = s at HGs HTs HLs HXqs ⊢
    clear hgw
    try simp only [Act.put, List.getElem_toArray, List.getElem_cons_succ, List.getElem_cons_zero, List.setIfInBounds_toArray, List.set_cons_zero, List.set_cons_succ]
    refine reg_fork (rs := [2, 11]) hR (by kernel_rfl) (by simp) ?_
    intro i hi; simp only [List.mem_cons, List.not_mem_nil, or_false] at hi
    rcases hi with rfl | rfl
    · refine ⟨_, rfl, fun K hK => ?_⟩
      try simp only [Act.put, List.getElem_toArray, List.getElem_cons_succ, List.getElem_cons_zero, List.setIfInBounds_toArray, List.set_cons_zero, List.set_cons_succ]
      rw [if_pos (by rfl)]
      go_simp
      refine (Own_any u2 ((HRB.out.below HB.out).more HB.out.size) (by omega)).mono ?_; rintro e u3 ⟨v29, rfl, ho, hb⟩
      refine hK.out _ _ (show Below _ _ _ from hb.mono HB.out.size) ?_
      clear hK K
      have HGq := Lib.hid (HGq.out.keep hb)
      have HGs := Lib.hid (HGs.out.keep hb)
      have HNq := Lib.hid (show Value.ownBlock (v29) ≠ some q from fun e => by have h1 := (World.ownsRow.lt ho _ e).1; have h2 := HLq.out; omega)
      have HNs := Lib.hid (show Value.ownBlock (v29) ≠ some s from fun e => by have h1 := (World.ownsRow.lt ho _ e).1; have h2 := HLs.out; omega)
      have HO := Lib.hid (Ow.lower ho HB.out.size)
      clear ho
      have HB := Lib.hid (HB.out.trans (hb.mono HB.out.size))
      clear hb
      have HLq := Lib.hid (show q < u3.heap.size from HGq.out.lt)
      have HLs := Lib.hid (show s < u3.heap.size from HGs.out.lt)
      try simp only [Act.put, List.getElem_toArray, List.getElem_cons_succ, List.getElem_cons_zero, List.setIfInBounds_toArray, List.set_cons_zero, List.set_cons_succ]
      refine reg_fork (rs := [4, 11]) hR (by kernel_rfl) (by simp) ?_
      intro i hi; simp only [List.mem_cons, List.not_mem_nil, or_false] at hi
      rcases hi with rfl | rfl
      · refine ⟨_, rfl, fun K hK => ?_⟩
        try simp only [Act.put, List.getElem_toArray, List.getElem_cons_succ, List.getElem_cons_zero, List.setIfInBounds_toArray, List.set_cons_zero, List.set_cons_succ]
        rw [if_pos (by rfl)]
        refine wp_app2 _ _ rfl rfl HO.out rfl (rd7 HGs.out) (by rw [HLB.out]; omega) HB.out.size ?_
        intro v31 u4 ho hg hv
        refine hK.out _ _ (show Below _ _ _ from ⟨hg.os, hg.tape, hg.output, hg.size, fun i hi => hg.block i (Nat.lt_of_lt_of_le hi HB.out.size) (fun e => by have h1 := (World.ownsRow.lt HO.out _ e.symm).1; omega)⟩) ?_
        clear hK K
        have HB := Lib.hid (HB.out.trans (show Below w5.heap.size u3 u4 from ⟨hg.os, hg.tape, hg.output, hg.size, fun i hi => hg.block i (Nat.lt_of_lt_of_le hi HB.out.size) (fun e => by have h1 := (World.ownsRow.lt HO.out _ e.symm).1; omega)⟩))
        have HN1q := Lib.hid (own_ne hv HNq.out HGq.out.lt)
        have HGq := Lib.hid (Bk.grow HGq.out hg HNq.out)
        have HLq := Lib.hid (show q < u4.heap.size from HGq.out.lt)
        have HN1s := Lib.hid (own_ne hv HNs.out HGs.out.lt)
        have HGs := Lib.hid (Bk.grow HGs.out hg HNs.out)
        have HLs := Lib.hid (show s < u4.heap.size from HGs.out.lt)
        obtain ⟨A31, c31, ev, -⟩ := ho.rdN (n := 13) (by rw [List.length_append, HLB.out]; rfl)
        subst ev
        have HO := Lib.hid ho
        clear ho hg hv
        have HNq := HN1q
        clear HN1q
        have HNs := HN1s
        clear HN1s
        have HRV := Lib.hid (HO.out.rdN (n := 13) (by rw [List.length_append, HLB.out]; rfl))
        try simp only [Act.put, List.getElem_toArray, List.getElem_cons_succ, List.getElem_cons_zero, List.setIfInBounds_toArray, List.set_cons_zero, List.set_cons_succ]
        refine reg_fork (rs := [5, 11]) hR (by kernel_rfl) (by simp) ?_
        intro i hi; simp only [List.mem_cons, List.not_mem_nil, or_false] at hi
        rcases hi with rfl | rfl
        · refine ⟨_, rfl, fun K hK => ?_⟩
          try simp only [Act.put, List.getElem_toArray, List.getElem_cons_succ, List.getElem_cons_zero, List.setIfInBounds_toArray, List.set_cons_zero, List.set_cons_succ]
          rw [if_pos (by rfl)]
          try clear HRV
          go_simp
          refine (HRead.out u4 _ _ (rd_own HO.out (by rw [List.length_append, HLB.out]; rfl))).mono ?_; rintro e u5 ⟨A22, n22, c22, rfl, ho, hb⟩
          refine hK.out _ _ (show Below _ _ _ from hb.mono HB.out.size) ?_
          clear hK K
          have HGq := Lib.hid (HGq.out.keep hb)
          have HGs := Lib.hid (HGs.out.keep hb)
          have HNq := Lib.hid (show Value.ownBlock (.slice A22 n22 c22) ≠ some q from fun e => by have h1 := (World.ownsRow.lt ho _ e).1; have h2 := HLq.out; omega)
          have HNs := Lib.hid (show Value.ownBlock (.slice A22 n22 c22) ≠ some s from fun e => by have h1 := (World.ownsRow.lt ho _ e).1; have h2 := HLs.out; omega)
          have HO := Lib.hid (Ow.lower ho HB.out.size)
          clear ho
          have HB := Lib.hid (HB.out.trans (hb.mono HB.out.size))
          clear hb
          have HLq := Lib.hid (show q < u5.heap.size from HGq.out.lt)
          have HLs := Lib.hid (show s < u5.heap.size from HGs.out.lt)
          try simp only [Act.put, List.getElem_toArray, List.getElem_cons_succ, List.getElem_cons_zero, List.setIfInBounds_toArray, List.set_cons_zero, List.set_cons_succ]
          refine reg_take (v := .tuple #[.agg #[.int .u8 9, .slice A22 n22 c22], .int .i64 12, .agg (cs8 N).toArray, .int .i64 0]) hR 6 rfl (by kernel_rfl) (by kernel_rfl) (by kernel_rfl) (fun _ _ _ h => by cases h.1) (by rfl) ?_ ?_
          · intro W hW; go_simp; try with_reducible rfl
          try simp only [Act.put, List.getElem_toArray, List.getElem_cons_succ, List.getElem_cons_zero, List.setIfInBounds_toArray, List.set_cons_zero, List.set_cons_succ]
          refine reg_take (v := .agg #[.int .u8 9, .slice A22 n22 c22]) hR 7 rfl (by kernel_rfl) (by kernel_rfl) (by kernel_rfl) (fun _ _ _ h => by cases h.1) (by rfl) ?_ ?_
          · intro W hW; go_simp; try with_reducible rfl
          try simp only [Act.put, List.getElem_toArray, List.getElem_cons_succ, List.getElem_cons_zero, List.setIfInBounds_toArray, List.set_cons_zero, List.set_cons_succ]
          refine reg_take (v := .int .i64 12) hR 8 rfl (by kernel_rfl) (by kernel_rfl) (by kernel_rfl) (fun _ _ _ h => by cases h.1) (by rfl) ?_ ?_
          · intro W hW; go_simp; try with_reducible rfl
          try simp only [Act.put, List.getElem_toArray, List.getElem_cons_succ, List.getElem_cons_zero, List.setIfInBounds_toArray, List.set_cons_zero, List.set_cons_succ]
          refine reg_take (v := .agg (cs8 N).toArray) hR 9 rfl (by kernel_rfl) (by kernel_rfl) (by kernel_rfl) (fun _ _ _ h => by cases h.1) (by rfl) ?_ ?_
          · intro W hW; go_simp; try with_reducible rfl
          try simp only [Act.put, List.getElem_toArray, List.getElem_cons_succ, List.getElem_cons_zero, List.setIfInBounds_toArray, List.set_cons_zero, List.set_cons_succ]
          refine reg_take (v := .int .i64 0) hR 10 rfl (by kernel_rfl) (by kernel_rfl) (by kernel_rfl) (fun _ _ _ h => by cases h.1) (by rfl) ?_ ?_
          · intro W hW; go_simp; try with_reducible rfl
          try simp only [Act.put, List.getElem_toArray, List.getElem_cons_succ, List.getElem_cons_zero, List.setIfInBounds_toArray, List.set_cons_zero, List.set_cons_succ]
          refine reg_step hR 11 (by kernel_rfl) rfl fun K hK => ?_
          try simp only [Act.put, List.getElem_toArray, List.getElem_cons_succ, List.getElem_cons_zero, List.setIfInBounds_toArray, List.set_cons_zero, List.set_cons_succ]
          rw [if_pos (by rfl)]
          refine wp_alloc_z 31 rfl z31 zero31 ?_
          refine hK.out _ _ ((Below.refl _ _).alloc HB.out.size _) ?_
          clear hK K
          have HGp := Lib.hid (Bk.new u5 z31 31)
          have HXqp := Lib.hid (show q ≠ u5.heap.size from by have h1 := HGq.out.lt; omega)
          have HGq := Lib.hid (HGq.out.old (.cells z31.toArray 31))
          have HXsp := Lib.hid (show s ≠ u5.heap.size from by have h1 := HGs.out.lt; omega)
          have HGs := Lib.hid (HGs.out.old (.cells z31.toArray 31))
          have HNp := Lib.hid (show Value.ownBlock (.slice A22 n22 c22) ≠ some u5.heap.size from fun e => by have h1 := (World.ownsRow.lt HO.out _ e).2; omega)
          have HO := Lib.hid (Ow.alloc HO.out (.cells z31.toArray 31))
          have HTp := Lib.hid (show w5.heap.size ≤ u5.heap.size from HB.out.size)
          have HB := Lib.hid (HB.out.alloc HB.out.size (.cells z31.toArray 31))
          have HLp := Lib.hid (show u5.heap.size < (u5.alloc (.cells z31.toArray 31)).heap.size by simp)
          have HLq := Lib.hid (show q < (u5.alloc (.cells z31.toArray 31)).heap.size by have h1 := HLq.out; have h2 := HLp.out; omega)
          have HLs := Lib.hid (show s < (u5.alloc (.cells z31.toArray 31)).heap.size by have h1 := HLs.out; have h2 := HLp.out; omega)
          generalize hgw : u5.alloc (.cells z31.toArray 31) = u6 at HB HGq HGs HGp HO HLq HLs HLp ⊢
          clear hgw
          generalize hgw : u5.heap.size = p at HGp HTp HLp HXqp HXsp HNp ⊢
          clear hgw
          try simp only [Act.put, List.getElem_toArray, List.getElem_cons_succ, List.getElem_cons_zero, List.setIfInBounds_toArray, List.set_cons_zero, List.set_cons_succ]
          refine reg_step hR 13 (by kernel_rfl) rfl fun K hK => ?_
          try simp only [Act.put, List.getElem_toArray, List.getElem_cons_succ, List.getElem_cons_zero, List.setIfInBounds_toArray, List.set_cons_zero, List.set_cons_succ]
          rw [if_pos (by rfl)]
          refine wp_store_bk 31 _ _ rfl p rfl ([.int .u8 9, .slice A22 n22 c22] : List Value) z31 rfl HGp.out info31 rfl (rec_all _ _ _ _) ?_
          refine hK.out _ _ (below_setRow (Below.refl _ _) HTp.out _) ?_
          clear hK K
          have HGp := Lib.hid (HGp.out.setRow ([.int .u8 9, .slice A22 n22 c22] : List Value))
          have HGq := Lib.hid (HGq.out.other (show q ≠ p from HXqp.out) (([.int .u8 9, .slice A22 n22 c22] : List Value)).toArray)
          have HGs := Lib.hid (HGs.out.other (show s ≠ p from HXsp.out) (([.int .u8 9, .slice A22 n22 c22] : List Value)).toArray)
          have HO := Lib.hid (World.ownsRow.kept HO.out (grown_setRow u6 p (([.int .u8 9, .slice A22 n22 c22] : List Value)).toArray) (.inr HNp.out))
          have HB := Lib.hid (below_setRow HB.out HTp.out (([.int .u8 9, .slice A22 n22 c22] : List Value)).toArray)
          generalize hgw : u6.setRow p (([.int .u8 9, .slice A22 n22 c22] : List Value)).toArray = u7 at HB HGq HGs HGp HO ⊢
          clear hgw
          try simp only [Act.put, List.getElem_toArray, List.getElem_cons_succ, List.getElem_cons_zero, List.setIfInBounds_toArray, List.set_cons_zero, List.set_cons_succ]
          refine reg_take (v := .int .i64 12) hR 14 rfl (by kernel_rfl) (by kernel_rfl) (by kernel_rfl) (fun _ _ _ h => by cases h.1) (by rfl) ?_ ?_
          · intro W hW; go_simp; try with_reducible rfl
          try simp only [Act.put, List.getElem_toArray, List.getElem_cons_succ, List.getElem_cons_zero, List.setIfInBounds_toArray, List.set_cons_zero, List.set_cons_succ]
          refine reg_step hR 15 (by kernel_rfl) rfl fun K hK => ?_
          try simp only [Act.put, List.getElem_toArray, List.getElem_cons_succ, List.getElem_cons_zero, List.setIfInBounds_toArray, List.set_cons_zero, List.set_cons_succ]
          rw [if_pos (by rfl)]
          refine wp_store_bk 23 _ _ rfl q rfl (cs8 N) z36 rfl HGq.out (by rw [HN8.out]; exact info36) (by rw [HN8.out]; exact len_z36) (cs8_all _) ?_
          refine hK.out _ _ (below_setRow (Below.refl _ _) HTq.out _) ?_
          clear hK K
          have HGq := Lib.hid (HGq.out.setRow (cs8 N))
          have HGs := Lib.hid (HGs.out.other (show s ≠ q from HXqs.out.symm) ((cs8 N)).toArray)
          have HGp := Lib.hid (HGp.out.other (show p ≠ q from HXqp.out.symm) ((cs8 N)).toArray)
          have HO := Lib.hid (World.ownsRow.kept HO.out (grown_setRow u7 q ((cs8 N)).toArray) (.inr HNq.out))
          have HB := Lib.hid (below_setRow HB.out HTq.out ((cs8 N)).toArray)
          generalize hgw : u7.setRow q ((cs8 N)).toArray = u8 at HB HGq HGs HGp HO ⊢
          clear hgw
          try simp only [Act.put, List.getElem_toArray, List.getElem_cons_succ, List.getElem_cons_zero, List.setIfInBounds_toArray, List.set_cons_zero, List.set_cons_succ]
          refine reg_take (v := .int .i64 0) hR 16 rfl (by kernel_rfl) (by kernel_rfl) (by kernel_rfl) (fun _ _ _ h => by cases h.1) (by rfl) ?_ ?_
          · intro W hW; go_simp; try with_reducible rfl
          try simp only [Act.put, List.getElem_toArray, List.getElem_cons_succ, List.getElem_cons_zero, List.setIfInBounds_toArray, List.set_cons_zero, List.set_cons_succ]
          refine reg_done (by kernel_rfl) ?_ _
          refine ⟨rfl, p, q, s, v29, A31, c31, A22, n22, c22, ?_, HTp, HTq, Lib.hid HXqp.out.symm, HGp, HGq, HO, HB⟩
          simp only [frame3, puts, List.foldl_cons, List.foldl_nil, Act.put, List.getElem_toArray, List.getElem_cons_succ, List.getElem_cons_zero, List.setIfInBounds_toArray, List.set_cons_zero, List.set_cons_succ]
        · refine ⟨_, rfl, fun K hK => ?_⟩
          try simp only [Act.put, List.getElem_toArray, List.getElem_cons_succ, List.getElem_cons_zero, List.setIfInBounds_toArray, List.set_cons_zero, List.set_cons_succ]
          rw [if_pos (by rfl)]
          refine wp_alloc_z 31 rfl z31 zero31 ?_
          refine hK.out _ _ ((Below.refl _ _).alloc HB.out.size _) ?_
          clear hK K
          have HGp := Lib.hid (Bk.new u4 z31 31)
          have HXqp := Lib.hid (show q ≠ u4.heap.size from by have h1 := HGq.out.lt; omega)
          have HGq := Lib.hid (HGq.out.old (.cells z31.toArray 31))
          have HXsp := Lib.hid (show s ≠ u4.heap.size from by have h1 := HGs.out.lt; omega)
          have HGs := Lib.hid (HGs.out.old (.cells z31.toArray 31))
          have HNp := Lib.hid (show Value.ownBlock (.slice A31 13 c31) ≠ some u4.heap.size from fun e => by have h1 := (World.ownsRow.lt HO.out _ e).2; omega)
          have HO := Lib.hid (Ow.alloc HO.out (.cells z31.toArray 31))
          have HTp := Lib.hid (show w5.heap.size ≤ u4.heap.size from HB.out.size)
          have HB := Lib.hid (HB.out.alloc HB.out.size (.cells z31.toArray 31))
          have HLp := Lib.hid (show u4.heap.size < (u4.alloc (.cells z31.toArray 31)).heap.size by simp)
          have HLq := Lib.hid (show q < (u4.alloc (.cells z31.toArray 31)).heap.size by have h1 := HLq.out; have h2 := HLp.out; omega)
          have HLs := Lib.hid (show s < (u4.alloc (.cells z31.toArray 31)).heap.size by have h1 := HLs.out; have h2 := HLp.out; omega)
          generalize hgw : u4.alloc (.cells z31.toArray 31) = u5 at HB HGq HGs HGp HO HLq HLs HLp ⊢
          clear hgw
          generalize hgw : u4.heap.size = p at HGp HTp HLp HXqp HXsp HNp ⊢
          clear hgw
          try simp only [Act.put, List.getElem_toArray, List.getElem_cons_succ, List.getElem_cons_zero, List.setIfInBounds_toArray, List.set_cons_zero, List.set_cons_succ]
          refine reg_step hR 5 (by kernel_rfl) rfl fun K hK => ?_
          try simp only [Act.put, List.getElem_toArray, List.getElem_cons_succ, List.getElem_cons_zero, List.setIfInBounds_toArray, List.set_cons_zero, List.set_cons_succ]
          rw [if_pos (by rfl)]
          try clear HRV
          go_simp
          refine (HRead.out u5 _ _ (rd_own HO.out (by rw [List.length_append, HLB.out]; rfl))).mono ?_; rintro e u6 ⟨A22, n22, c22, rfl, ho, hb⟩
          refine hK.out _ _ (show Below _ _ _ from hb.mono HB.out.size) ?_
          clear hK K
          have HGq := Lib.hid (HGq.out.keep hb)
          have HGs := Lib.hid (HGs.out.keep hb)
          have HGp := Lib.hid (HGp.out.keep hb)
          have HNq := Lib.hid (show Value.ownBlock (.slice A22 n22 c22) ≠ some q from fun e => by have h1 := (World.ownsRow.lt ho _ e).1; have h2 := HLq.out; omega)
          have HNs := Lib.hid (show Value.ownBlock (.slice A22 n22 c22) ≠ some s from fun e => by have h1 := (World.ownsRow.lt ho _ e).1; have h2 := HLs.out; omega)
          have HNp := Lib.hid (show Value.ownBlock (.slice A22 n22 c22) ≠ some p from fun e => by have h1 := (World.ownsRow.lt ho _ e).1; have h2 := HLp.out; omega)
          have HO := Lib.hid (Ow.lower ho HB.out.size)
          clear ho
          have HB := Lib.hid (HB.out.trans (hb.mono HB.out.size))
          clear hb
          have HLq := Lib.hid (show q < u6.heap.size from HGq.out.lt)
          have HLs := Lib.hid (show s < u6.heap.size from HGs.out.lt)
          have HLp := Lib.hid (show p < u6.heap.size from HGp.out.lt)
          try simp only [Act.put, List.getElem_toArray, List.getElem_cons_succ, List.getElem_cons_zero, List.setIfInBounds_toArray, List.set_cons_zero, List.set_cons_succ]
          refine reg_take (v := .tuple #[.agg #[.int .u8 9, .slice A22 n22 c22], .int .i64 12, .agg (cs8 N).toArray, .int .i64 0]) hR 6 rfl (by kernel_rfl) (by kernel_rfl) (by kernel_rfl) (fun _ _ _ h => by cases h.1) (by rfl) ?_ ?_
          · intro W hW; go_simp; try with_reducible rfl
          try simp only [Act.put, List.getElem_toArray, List.getElem_cons_succ, List.getElem_cons_zero, List.setIfInBounds_toArray, List.set_cons_zero, List.set_cons_succ]
          refine reg_take (v := .agg #[.int .u8 9, .slice A22 n22 c22]) hR 7 rfl (by kernel_rfl) (by kernel_rfl) (by kernel_rfl) (fun _ _ _ h => by cases h.1) (by rfl) ?_ ?_
          · intro W hW; go_simp; try with_reducible rfl
          try simp only [Act.put, List.getElem_toArray, List.getElem_cons_succ, List.getElem_cons_zero, List.setIfInBounds_toArray, List.set_cons_zero, List.set_cons_succ]
          refine reg_take (v := .int .i64 12) hR 8 rfl (by kernel_rfl) (by kernel_rfl) (by kernel_rfl) (fun _ _ _ h => by cases h.1) (by rfl) ?_ ?_
          · intro W hW; go_simp; try with_reducible rfl
          try simp only [Act.put, List.getElem_toArray, List.getElem_cons_succ, List.getElem_cons_zero, List.setIfInBounds_toArray, List.set_cons_zero, List.set_cons_succ]
          refine reg_take (v := .agg (cs8 N).toArray) hR 9 rfl (by kernel_rfl) (by kernel_rfl) (by kernel_rfl) (fun _ _ _ h => by cases h.1) (by rfl) ?_ ?_
          · intro W hW; go_simp; try with_reducible rfl
          try simp only [Act.put, List.getElem_toArray, List.getElem_cons_succ, List.getElem_cons_zero, List.setIfInBounds_toArray, List.set_cons_zero, List.set_cons_succ]
          refine reg_take (v := .int .i64 0) hR 10 rfl (by kernel_rfl) (by kernel_rfl) (by kernel_rfl) (fun _ _ _ h => by cases h.1) (by rfl) ?_ ?_
          · intro W hW; go_simp; try with_reducible rfl
          try simp only [Act.put, List.getElem_toArray, List.getElem_cons_succ, List.getElem_cons_zero, List.setIfInBounds_toArray, List.set_cons_zero, List.set_cons_succ]
          refine reg_step hR 13 (by kernel_rfl) rfl fun K hK => ?_
          try simp only [Act.put, List.getElem_toArray, List.getElem_cons_succ, List.getElem_cons_zero, List.setIfInBounds_toArray, List.set_cons_zero, List.set_cons_succ]
          rw [if_pos (by rfl)]
          refine wp_store_bk 31 _ _ rfl p rfl ([.int .u8 9, .slice A22 n22 c22] : List Value) z31 rfl HGp.out info31 rfl (rec_all _ _ _ _) ?_
          refine hK.out _ _ (below_setRow (Below.refl _ _) HTp.out _) ?_
          clear hK K
          have HGp := Lib.hid (HGp.out.setRow ([.int .u8 9, .slice A22 n22 c22] : List Value))
          have HGq := Lib.hid (HGq.out.other (show q ≠ p from HXqp.out) (([.int .u8 9, .slice A22 n22 c22] : List Value)).toArray)
          have HGs := Lib.hid (HGs.out.other (show s ≠ p from HXsp.out) (([.int .u8 9, .slice A22 n22 c22] : List Value)).toArray)
          have HO := Lib.hid (World.ownsRow.kept HO.out (grown_setRow u6 p (([.int .u8 9, .slice A22 n22 c22] : List Value)).toArray) (.inr HNp.out))
          have HB := Lib.hid (below_setRow HB.out HTp.out (([.int .u8 9, .slice A22 n22 c22] : List Value)).toArray)
          generalize hgw : u6.setRow p (([.int .u8 9, .slice A22 n22 c22] : List Value)).toArray = u7 at HB HGq HGs HGp HO ⊢
          clear hgw
          try simp only [Act.put, List.getElem_toArray, List.getElem_cons_succ, List.getElem_cons_zero, List.setIfInBounds_toArray, List.set_cons_zero, List.set_cons_succ]
          refine reg_take (v := .int .i64 12) hR 14 rfl (by kernel_rfl) (by kernel_rfl) (by kernel_rfl) (fun _ _ _ h => by cases h.1) (by rfl) ?_ ?_
          · intro W hW; go_simp; try with_reducible rfl
          try simp only [Act.put, List.getElem_toArray, List.getElem_cons_succ, List.getElem_cons_zero, List.setIfInBounds_toArray, List.set_cons_zero, List.set_cons_succ]
          refine reg_step hR 15 (by kernel_rfl) rfl fun K hK => ?_
          try simp only [Act.put, List.getElem_toArray, List.getElem_cons_succ, List.getElem_cons_zero, List.setIfInBounds_toArray, List.set_cons_zero, List.set_cons_succ]
          rw [if_pos (by rfl)]
          refine wp_store_bk 23 _ _ rfl q rfl (cs8 N) z36 rfl HGq.out (by rw [HN8.out]; exact info36) (by rw [HN8.out]; exact len_z36) (cs8_all _) ?_
          refine hK.out _ _ (below_setRow (Below.refl _ _) HTq.out _) ?_
          clear hK K
          have HGq := Lib.hid (HGq.out.setRow (cs8 N))
          have HGs := Lib.hid (HGs.out.other (show s ≠ q from HXqs.out.symm) ((cs8 N)).toArray)
          have HGp := Lib.hid (HGp.out.other (show p ≠ q from HXqp.out.symm) ((cs8 N)).toArray)
          have HO := Lib.hid (World.ownsRow.kept HO.out (grown_setRow u7 q ((cs8 N)).toArray) (.inr HNq.out))
          have HB := Lib.hid (below_setRow HB.out HTq.out ((cs8 N)).toArray)
          generalize hgw : u7.setRow q ((cs8 N)).toArray = u8 at HB HGq HGs HGp HO ⊢
          clear hgw
          try simp only [Act.put, List.getElem_toArray, List.getElem_cons_succ, List.getElem_cons_zero, List.setIfInBounds_toArray, List.set_cons_zero, List.set_cons_succ]
          refine reg_take (v := .int .i64 0) hR 16 rfl (by kernel_rfl) (by kernel_rfl) (by kernel_rfl) (fun _ _ _ h => by cases h.1) (by rfl) ?_ ?_
          · intro W hW; go_simp; try with_reducible rfl
          try simp only [Act.put, List.getElem_toArray, List.getElem_cons_succ, List.getElem_cons_zero, List.setIfInBounds_toArray, List.set_cons_zero, List.set_cons_succ]
          refine reg_done (by kernel_rfl) ?_ _
          refine ⟨rfl, p, q, s, v29, A31, c31, A22, n22, c22, ?_, HTp, HTq, Lib.hid HXqp.out.symm, HGp, HGq, HO, HB⟩
          simp only [frame3, puts, List.foldl_cons, List.foldl_nil, Act.put, List.getElem_toArray, List.getElem_cons_succ, List.getElem_cons_zero, List.setIfInBounds_toArray, List.set_cons_zero, List.set_cons_succ]
      · refine ⟨_, rfl, fun K hK => ?_⟩
        try simp only [Act.put, List.getElem_toArray, List.getElem_cons_succ, List.getElem_cons_zero, List.setIfInBounds_toArray, List.set_cons_zero, List.set_cons_succ]
        rw [if_pos (by rfl)]
        refine wp_alloc_z 31 rfl z31 zero31 ?_
        refine hK.out _ _ ((Below.refl _ _).alloc HB.out.size _) ?_
        clear hK K
        have HGp := Lib.hid (Bk.new u3 z31 31)
        have HXqp := Lib.hid (show q ≠ u3.heap.size from by have h1 := HGq.out.lt; omega)
        have HGq := Lib.hid (HGq.out.old (.cells z31.toArray 31))
        have HXsp := Lib.hid (show s ≠ u3.heap.size from by have h1 := HGs.out.lt; omega)
        have HGs := Lib.hid (HGs.out.old (.cells z31.toArray 31))
        have HNp := Lib.hid (show Value.ownBlock (v29) ≠ some u3.heap.size from fun e => by have h1 := (World.ownsRow.lt HO.out _ e).2; omega)
        have HO := Lib.hid (Ow.alloc HO.out (.cells z31.toArray 31))
        have HTp := Lib.hid (show w5.heap.size ≤ u3.heap.size from HB.out.size)
        have HB := Lib.hid (HB.out.alloc HB.out.size (.cells z31.toArray 31))
        have HLp := Lib.hid (show u3.heap.size < (u3.alloc (.cells z31.toArray 31)).heap.size by simp)
        have HLq := Lib.hid (show q < (u3.alloc (.cells z31.toArray 31)).heap.size by have h1 := HLq.out; have h2 := HLp.out; omega)
        have HLs := Lib.hid (show s < (u3.alloc (.cells z31.toArray 31)).heap.size by have h1 := HLs.out; have h2 := HLp.out; omega)
        generalize hgw : u3.alloc (.cells z31.toArray 31) = u4 at HB HGq HGs HGp HO HLq HLs HLp ⊢
        clear hgw
        generalize hgw : u3.heap.size = p at HGp HTp HLp HXqp HXsp HNp ⊢
        clear hgw
        try simp only [Act.put, List.getElem_toArray, List.getElem_cons_succ, List.getElem_cons_zero, List.setIfInBounds_toArray, List.set_cons_zero, List.set_cons_succ]
        refine reg_step hR 4 (by kernel_rfl) rfl fun K hK => ?_
        try simp only [Act.put, List.getElem_toArray, List.getElem_cons_succ, List.getElem_cons_zero, List.setIfInBounds_toArray, List.set_cons_zero, List.set_cons_succ]
        rw [if_pos (by rfl)]
        refine wp_app2 _ _ rfl rfl HO.out rfl (rd7 HGs.out) (by rw [HLB.out]; omega) HB.out.size ?_
        intro v31 u5 ho hg hv
        refine hK.out _ _ (show Below _ _ _ from ⟨hg.os, hg.tape, hg.output, hg.size, fun i hi => hg.block i (Nat.lt_of_lt_of_le hi HB.out.size) (fun e => by have h1 := (World.ownsRow.lt HO.out _ e.symm).1; omega)⟩) ?_
        clear hK K
        have HB := Lib.hid (HB.out.trans (show Below w5.heap.size u4 u5 from ⟨hg.os, hg.tape, hg.output, hg.size, fun i hi => hg.block i (Nat.lt_of_lt_of_le hi HB.out.size) (fun e => by have h1 := (World.ownsRow.lt HO.out _ e.symm).1; omega)⟩))
        have HN1q := Lib.hid (own_ne hv HNq.out HGq.out.lt)
        have HGq := Lib.hid (Bk.grow HGq.out hg HNq.out)
        have HLq := Lib.hid (show q < u5.heap.size from HGq.out.lt)
        have HN1s := Lib.hid (own_ne hv HNs.out HGs.out.lt)
        have HGs := Lib.hid (Bk.grow HGs.out hg HNs.out)
        have HLs := Lib.hid (show s < u5.heap.size from HGs.out.lt)
        have HN1p := Lib.hid (own_ne hv HNp.out HGp.out.lt)
        have HGp := Lib.hid (Bk.grow HGp.out hg HNp.out)
        have HLp := Lib.hid (show p < u5.heap.size from HGp.out.lt)
        obtain ⟨A31, c31, ev, -⟩ := ho.rdN (n := 13) (by rw [List.length_append, HLB.out]; rfl)
        subst ev
        have HO := Lib.hid ho
        clear ho hg hv
        have HNq := HN1q
        clear HN1q
        have HNs := HN1s
        clear HN1s
        have HNp := HN1p
        clear HN1p
        have HRV := Lib.hid (HO.out.rdN (n := 13) (by rw [List.length_append, HLB.out]; rfl))
        try simp only [Act.put, List.getElem_toArray, List.getElem_cons_succ, List.getElem_cons_zero, List.setIfInBounds_toArray, List.set_cons_zero, List.set_cons_succ]
        refine reg_step hR 5 (by kernel_rfl) rfl fun K hK => ?_
        try simp only [Act.put, List.getElem_toArray, List.getElem_cons_succ, List.getElem_cons_zero, List.setIfInBounds_toArray, List.set_cons_zero, List.set_cons_succ]
        rw [if_pos (by rfl)]
        try clear HRV
        go_simp
        refine (HRead.out u5 _ _ (rd_own HO.out (by rw [List.length_append, HLB.out]; rfl))).mono ?_; rintro e u6 ⟨A22, n22, c22, rfl, ho, hb⟩
        refine hK.out _ _ (show Below _ _ _ from hb.mono HB.out.size) ?_
        clear hK K
        have HGq := Lib.hid (HGq.out.keep hb)
        have HGs := Lib.hid (HGs.out.keep hb)
        have HGp := Lib.hid (HGp.out.keep hb)
        have HNq := Lib.hid (show Value.ownBlock (.slice A22 n22 c22) ≠ some q from fun e => by have h1 := (World.ownsRow.lt ho _ e).1; have h2 := HLq.out; omega)
        have HNs := Lib.hid (show Value.ownBlock (.slice A22 n22 c22) ≠ some s from fun e => by have h1 := (World.ownsRow.lt ho _ e).1; have h2 := HLs.out; omega)
        have HNp := Lib.hid (show Value.ownBlock (.slice A22 n22 c22) ≠ some p from fun e => by have h1 := (World.ownsRow.lt ho _ e).1; have h2 := HLp.out; omega)
        have HO := Lib.hid (Ow.lower ho HB.out.size)
        clear ho
        have HB := Lib.hid (HB.out.trans (hb.mono HB.out.size))
        clear hb
        have HLq := Lib.hid (show q < u6.heap.size from HGq.out.lt)
        have HLs := Lib.hid (show s < u6.heap.size from HGs.out.lt)
        have HLp := Lib.hid (show p < u6.heap.size from HGp.out.lt)
        try simp only [Act.put, List.getElem_toArray, List.getElem_cons_succ, List.getElem_cons_zero, List.setIfInBounds_toArray, List.set_cons_zero, List.set_cons_succ]
        refine reg_take (v := .tuple #[.agg #[.int .u8 9, .slice A22 n22 c22], .int .i64 12, .agg (cs8 N).toArray, .int .i64 0]) hR 6 rfl (by kernel_rfl) (by kernel_rfl) (by kernel_rfl) (fun _ _ _ h => by cases h.1) (by rfl) ?_ ?_
        · intro W hW; go_simp; try with_reducible rfl
        try simp only [Act.put, List.getElem_toArray, List.getElem_cons_succ, List.getElem_cons_zero, List.setIfInBounds_toArray, List.set_cons_zero, List.set_cons_succ]
        refine reg_take (v := .agg #[.int .u8 9, .slice A22 n22 c22]) hR 7 rfl (by kernel_rfl) (by kernel_rfl) (by kernel_rfl) (fun _ _ _ h => by cases h.1) (by rfl) ?_ ?_
        · intro W hW; go_simp; try with_reducible rfl
        try simp only [Act.put, List.getElem_toArray, List.getElem_cons_succ, List.getElem_cons_zero, List.setIfInBounds_toArray, List.set_cons_zero, List.set_cons_succ]
        refine reg_take (v := .int .i64 12) hR 8 rfl (by kernel_rfl) (by kernel_rfl) (by kernel_rfl) (fun _ _ _ h => by cases h.1) (by rfl) ?_ ?_
        · intro W hW; go_simp; try with_reducible rfl
        try simp only [Act.put, List.getElem_toArray, List.getElem_cons_succ, List.getElem_cons_zero, List.setIfInBounds_toArray, List.set_cons_zero, List.set_cons_succ]
        refine reg_take (v := .agg (cs8 N).toArray) hR 9 rfl (by kernel_rfl) (by kernel_rfl) (by kernel_rfl) (fun _ _ _ h => by cases h.1) (by rfl) ?_ ?_
        · intro W hW; go_simp; try with_reducible rfl
        try simp only [Act.put, List.getElem_toArray, List.getElem_cons_succ, List.getElem_cons_zero, List.setIfInBounds_toArray, List.set_cons_zero, List.set_cons_succ]
        refine reg_take (v := .int .i64 0) hR 10 rfl (by kernel_rfl) (by kernel_rfl) (by kernel_rfl) (fun _ _ _ h => by cases h.1) (by rfl) ?_ ?_
        · intro W hW; go_simp; try with_reducible rfl
        try simp only [Act.put, List.getElem_toArray, List.getElem_cons_succ, List.getElem_cons_zero, List.setIfInBounds_toArray, List.set_cons_zero, List.set_cons_succ]
        refine reg_step hR 13 (by kernel_rfl) rfl fun K hK => ?_
        try simp only [Act.put, List.getElem_toArray, List.getElem_cons_succ, List.getElem_cons_zero, List.setIfInBounds_toArray, List.set_cons_zero, List.set_cons_succ]
        rw [if_pos (by rfl)]
        refine wp_store_bk 31 _ _ rfl p rfl ([.int .u8 9, .slice A22 n22 c22] : List Value) z31 rfl HGp.out info31 rfl (rec_all _ _ _ _) ?_
        refine hK.out _ _ (below_setRow (Below.refl _ _) HTp.out _) ?_
        clear hK K
        have HGp := Lib.hid (HGp.out.setRow ([.int .u8 9, .slice A22 n22 c22] : List Value))
        have HGq := Lib.hid (HGq.out.other (show q ≠ p from HXqp.out) (([.int .u8 9, .slice A22 n22 c22] : List Value)).toArray)
        have HGs := Lib.hid (HGs.out.other (show s ≠ p from HXsp.out) (([.int .u8 9, .slice A22 n22 c22] : List Value)).toArray)
        have HO := Lib.hid (World.ownsRow.kept HO.out (grown_setRow u6 p (([.int .u8 9, .slice A22 n22 c22] : List Value)).toArray) (.inr HNp.out))
        have HB := Lib.hid (below_setRow HB.out HTp.out (([.int .u8 9, .slice A22 n22 c22] : List Value)).toArray)
        generalize hgw : u6.setRow p (([.int .u8 9, .slice A22 n22 c22] : List Value)).toArray = u7 at HB HGq HGs HGp HO ⊢
        clear hgw
        try simp only [Act.put, List.getElem_toArray, List.getElem_cons_succ, List.getElem_cons_zero, List.setIfInBounds_toArray, List.set_cons_zero, List.set_cons_succ]
        refine reg_take (v := .int .i64 12) hR 14 rfl (by kernel_rfl) (by kernel_rfl) (by kernel_rfl) (fun _ _ _ h => by cases h.1) (by rfl) ?_ ?_
        · intro W hW; go_simp; try with_reducible rfl
        try simp only [Act.put, List.getElem_toArray, List.getElem_cons_succ, List.getElem_cons_zero, List.setIfInBounds_toArray, List.set_cons_zero, List.set_cons_succ]
        refine reg_step hR 15 (by kernel_rfl) rfl fun K hK => ?_
        try simp only [Act.put, List.getElem_toArray, List.getElem_cons_succ, List.getElem_cons_zero, List.setIfInBounds_toArray, List.set_cons_zero, List.set_cons_succ]
        rw [if_pos (by rfl)]
        refine wp_store_bk 23 _ _ rfl q rfl (cs8 N) z36 rfl HGq.out (by rw [HN8.out]; exact info36) (by rw [HN8.out]; exact len_z36) (cs8_all _) ?_
        refine hK.out _ _ (below_setRow (Below.refl _ _) HTq.out _) ?_
        clear hK K
        have HGq := Lib.hid (HGq.out.setRow (cs8 N))
        have HGs := Lib.hid (HGs.out.other (show s ≠ q from HXqs.out.symm) ((cs8 N)).toArray)
        have HGp := Lib.hid (HGp.out.other (show p ≠ q from HXqp.out.symm) ((cs8 N)).toArray)
        have HO := Lib.hid (World.ownsRow.kept HO.out (grown_setRow u7 q ((cs8 N)).toArray) (.inr HNq.out))
        have HB := Lib.hid (below_setRow HB.out HTq.out ((cs8 N)).toArray)
        generalize hgw : u7.setRow q ((cs8 N)).toArray = u8 at HB HGq HGs HGp HO ⊢
        clear hgw
        try simp only [Act.put, List.getElem_toArray, List.getElem_cons_succ, List.getElem_cons_zero, List.setIfInBounds_toArray, List.set_cons_zero, List.set_cons_succ]
        refine reg_take (v := .int .i64 0) hR 16 rfl (by kernel_rfl) (by kernel_rfl) (by kernel_rfl) (fun _ _ _ h => by cases h.1) (by rfl) ?_ ?_
        · intro W hW; go_simp; try with_reducible rfl
        try simp only [Act.put, List.getElem_toArray, List.getElem_cons_succ, List.getElem_cons_zero, List.setIfInBounds_toArray, List.set_cons_zero, List.set_cons_succ]
        refine reg_done (by kernel_rfl) ?_ _
        refine ⟨rfl, p, q, s, v29, A31, c31, A22, n22, c22, ?_, HTp, HTq, Lib.hid HXqp.out.symm, HGp, HGq, HO, HB⟩
        simp only [frame3, puts, List.foldl_cons, List.foldl_nil, Act.put, List.getElem_toArray, List.getElem_cons_succ, List.getElem_cons_zero, List.setIfInBounds_toArray, List.set_cons_zero, List.set_cons_succ]
    · refine ⟨_, rfl, fun K hK => ?_⟩
      try simp only [Act.put, List.getElem_toArray, List.getElem_cons_succ, List.getElem_cons_zero, List.setIfInBounds_toArray, List.set_cons_zero, List.set_cons_succ]
      rw [if_pos (by rfl)]
      refine wp_alloc_z 31 rfl z31 zero31 ?_
      refine hK.out _ _ ((Below.refl _ _).alloc HB.out.size _) ?_
      clear hK K
      have HGp := Lib.hid (Bk.new u2 z31 31)
      have HXqp := Lib.hid (show q ≠ u2.heap.size from by have h1 := HGq.out.lt; omega)
      have HGq := Lib.hid (HGq.out.old (.cells z31.toArray 31))
      have HXsp := Lib.hid (show s ≠ u2.heap.size from by have h1 := HGs.out.lt; omega)
      have HGs := Lib.hid (HGs.out.old (.cells z31.toArray 31))
      have HTp := Lib.hid (show w5.heap.size ≤ u2.heap.size from HB.out.size)
      have HB := Lib.hid (HB.out.alloc HB.out.size (.cells z31.toArray 31))
      have HLp := Lib.hid (show u2.heap.size < (u2.alloc (.cells z31.toArray 31)).heap.size by simp)
      have HLq := Lib.hid (show q < (u2.alloc (.cells z31.toArray 31)).heap.size by have h1 := HLq.out; have h2 := HLp.out; omega)
      have HLs := Lib.hid (show s < (u2.alloc (.cells z31.toArray 31)).heap.size by have h1 := HLs.out; have h2 := HLp.out; omega)
      generalize hgw : u2.alloc (.cells z31.toArray 31) = u3 at HB HGq HGs HGp HLq HLs HLp ⊢
      clear hgw
      generalize hgw : u2.heap.size = p at HGp HTp HLp HXqp HXsp ⊢
      clear hgw
      try simp only [Act.put, List.getElem_toArray, List.getElem_cons_succ, List.getElem_cons_zero, List.setIfInBounds_toArray, List.set_cons_zero, List.set_cons_succ]
      refine reg_step hR 2 (by kernel_rfl) rfl fun K hK => ?_
      try simp only [Act.put, List.getElem_toArray, List.getElem_cons_succ, List.getElem_cons_zero, List.setIfInBounds_toArray, List.set_cons_zero, List.set_cons_succ]
      rw [if_pos (by rfl)]
      go_simp
      refine (Own_any u3 ((HRB.out.below HB.out).more HB.out.size) (by omega)).mono ?_; rintro e u4 ⟨v29, rfl, ho, hb⟩
      refine hK.out _ _ (show Below _ _ _ from hb.mono HB.out.size) ?_
      clear hK K
      have HGq := Lib.hid (HGq.out.keep hb)
      have HGs := Lib.hid (HGs.out.keep hb)
      have HGp := Lib.hid (HGp.out.keep hb)
      have HNq := Lib.hid (show Value.ownBlock (v29) ≠ some q from fun e => by have h1 := (World.ownsRow.lt ho _ e).1; have h2 := HLq.out; omega)
      have HNs := Lib.hid (show Value.ownBlock (v29) ≠ some s from fun e => by have h1 := (World.ownsRow.lt ho _ e).1; have h2 := HLs.out; omega)
      have HNp := Lib.hid (show Value.ownBlock (v29) ≠ some p from fun e => by have h1 := (World.ownsRow.lt ho _ e).1; have h2 := HLp.out; omega)
      have HO := Lib.hid (Ow.lower ho HB.out.size)
      clear ho
      have HB := Lib.hid (HB.out.trans (hb.mono HB.out.size))
      clear hb
      have HLq := Lib.hid (show q < u4.heap.size from HGq.out.lt)
      have HLs := Lib.hid (show s < u4.heap.size from HGs.out.lt)
      have HLp := Lib.hid (show p < u4.heap.size from HGp.out.lt)
      try simp only [Act.put, List.getElem_toArray, List.getElem_cons_succ, List.getElem_cons_zero, List.setIfInBounds_toArray, List.set_cons_zero, List.set_cons_succ]
      refine reg_step hR 4 (by kernel_rfl) rfl fun K hK => ?_
      try simp only [Act.put, List.getElem_toArray, List.getElem_cons_succ, List.getElem_cons_zero, List.setIfInBounds_toArray, List.set_cons_zero, List.set_cons_succ]
      rw [if_pos (by rfl)]
      refine wp_app2 _ _ rfl rfl HO.out rfl (rd7 HGs.out) (by rw [HLB.out]; omega) HB.out.size ?_
      intro v31 u5 ho hg hv
      refine hK.out _ _ (show Below _ _ _ from ⟨hg.os, hg.tape, hg.output, hg.size, fun i hi => hg.block i (Nat.lt_of_lt_of_le hi HB.out.size) (fun e => by have h1 := (World.ownsRow.lt HO.out _ e.symm).1; omega)⟩) ?_
      clear hK K
      have HB := Lib.hid (HB.out.trans (show Below w5.heap.size u4 u5 from ⟨hg.os, hg.tape, hg.output, hg.size, fun i hi => hg.block i (Nat.lt_of_lt_of_le hi HB.out.size) (fun e => by have h1 := (World.ownsRow.lt HO.out _ e.symm).1; omega)⟩))
      have HN1q := Lib.hid (own_ne hv HNq.out HGq.out.lt)
      have HGq := Lib.hid (Bk.grow HGq.out hg HNq.out)
      have HLq := Lib.hid (show q < u5.heap.size from HGq.out.lt)
      have HN1s := Lib.hid (own_ne hv HNs.out HGs.out.lt)
      have HGs := Lib.hid (Bk.grow HGs.out hg HNs.out)
      have HLs := Lib.hid (show s < u5.heap.size from HGs.out.lt)
      have HN1p := Lib.hid (own_ne hv HNp.out HGp.out.lt)
      have HGp := Lib.hid (Bk.grow HGp.out hg HNp.out)
      have HLp := Lib.hid (show p < u5.heap.size from HGp.out.lt)
      obtain ⟨A31, c31, ev, -⟩ := ho.rdN (n := 13) (by rw [List.length_append, HLB.out]; rfl)
      subst ev
      have HO := Lib.hid ho
      clear ho hg hv
      have HNq := HN1q
      clear HN1q
      have HNs := HN1s
      clear HN1s
      have HNp := HN1p
      clear HN1p
      have HRV := Lib.hid (HO.out.rdN (n := 13) (by rw [List.length_append, HLB.out]; rfl))
      try simp only [Act.put, List.getElem_toArray, List.getElem_cons_succ, List.getElem_cons_zero, List.setIfInBounds_toArray, List.set_cons_zero, List.set_cons_succ]
      refine reg_step hR 5 (by kernel_rfl) rfl fun K hK => ?_
      try simp only [Act.put, List.getElem_toArray, List.getElem_cons_succ, List.getElem_cons_zero, List.setIfInBounds_toArray, List.set_cons_zero, List.set_cons_succ]
      rw [if_pos (by rfl)]
      try clear HRV
      go_simp
      refine (HRead.out u5 _ _ (rd_own HO.out (by rw [List.length_append, HLB.out]; rfl))).mono ?_; rintro e u6 ⟨A22, n22, c22, rfl, ho, hb⟩
      refine hK.out _ _ (show Below _ _ _ from hb.mono HB.out.size) ?_
      clear hK K
      have HGq := Lib.hid (HGq.out.keep hb)
      have HGs := Lib.hid (HGs.out.keep hb)
      have HGp := Lib.hid (HGp.out.keep hb)
      have HNq := Lib.hid (show Value.ownBlock (.slice A22 n22 c22) ≠ some q from fun e => by have h1 := (World.ownsRow.lt ho _ e).1; have h2 := HLq.out; omega)
      have HNs := Lib.hid (show Value.ownBlock (.slice A22 n22 c22) ≠ some s from fun e => by have h1 := (World.ownsRow.lt ho _ e).1; have h2 := HLs.out; omega)
      have HNp := Lib.hid (show Value.ownBlock (.slice A22 n22 c22) ≠ some p from fun e => by have h1 := (World.ownsRow.lt ho _ e).1; have h2 := HLp.out; omega)
      have HO := Lib.hid (Ow.lower ho HB.out.size)
      clear ho
      have HB := Lib.hid (HB.out.trans (hb.mono HB.out.size))
      clear hb
      have HLq := Lib.hid (show q < u6.heap.size from HGq.out.lt)
      have HLs := Lib.hid (show s < u6.heap.size from HGs.out.lt)
      have HLp := Lib.hid (show p < u6.heap.size from HGp.out.lt)
      try simp only [Act.put, List.getElem_toArray, List.getElem_cons_succ, List.getElem_cons_zero, List.setIfInBounds_toArray, List.set_cons_zero, List.set_cons_succ]
      refine reg_take (v := .tuple #[.agg #[.int .u8 9, .slice A22 n22 c22], .int .i64 12, .agg (cs8 N).toArray, .int .i64 0]) hR 6 rfl (by kernel_rfl) (by kernel_rfl) (by kernel_rfl) (fun _ _ _ h => by cases h.1) (by rfl) ?_ ?_
      · intro W hW; go_simp; try with_reducible rfl
      try simp only [Act.put, List.getElem_toArray, List.getElem_cons_succ, List.getElem_cons_zero, List.setIfInBounds_toArray, List.set_cons_zero, List.set_cons_succ]
      refine reg_take (v := .agg #[.int .u8 9, .slice A22 n22 c22]) hR 7 rfl (by kernel_rfl) (by kernel_rfl) (by kernel_rfl) (fun _ _ _ h => by cases h.1) (by rfl) ?_ ?_
      · intro W hW; go_simp; try with_reducible rfl
      try simp only [Act.put, List.getElem_toArray, List.getElem_cons_succ, List.getElem_cons_zero, List.setIfInBounds_toArray, List.set_cons_zero, List.set_cons_succ]
      refine reg_take (v := .int .i64 12) hR 8 rfl (by kernel_rfl) (by kernel_rfl) (by kernel_rfl) (fun _ _ _ h => by cases h.1) (by rfl) ?_ ?_
      · intro W hW; go_simp; try with_reducible rfl
      try simp only [Act.put, List.getElem_toArray, List.getElem_cons_succ, List.getElem_cons_zero, List.setIfInBounds_toArray, List.set_cons_zero, List.set_cons_succ]
      refine reg_take (v := .agg (cs8 N).toArray) hR 9 rfl (by kernel_rfl) (by kernel_rfl) (by kernel_rfl) (fun _ _ _ h => by cases h.1) (by rfl) ?_ ?_
      · intro W hW; go_simp; try with_reducible rfl
      try simp only [Act.put, List.getElem_toArray, List.getElem_cons_succ, List.getElem_cons_zero, List.setIfInBounds_toArray, List.set_cons_zero, List.set_cons_succ]
      refine reg_take (v := .int .i64 0) hR 10 rfl (by kernel_rfl) (by kernel_rfl) (by kernel_rfl) (fun _ _ _ h => by cases h.1) (by rfl) ?_ ?_
      · intro W hW; go_simp; try with_reducible rfl
      try simp only [Act.put, List.getElem_toArray, List.getElem_cons_succ, List.getElem_cons_zero, List.setIfInBounds_toArray, List.set_cons_zero, List.set_cons_succ]
      refine reg_step hR 13 (by kernel_rfl) rfl fun K hK => ?_
      try simp only [Act.put, List.getElem_toArray, List.getElem_cons_succ, List.getElem_cons_zero, List.setIfInBounds_toArray, List.set_cons_zero, List.set_cons_succ]
      rw [if_pos (by rfl)]
      refine wp_store_bk 31 _ _ rfl p rfl ([.int .u8 9, .slice A22 n22 c22] : List Value) z31 rfl HGp.out info31 rfl (rec_all _ _ _ _) ?_
      refine hK.out _ _ (below_setRow (Below.refl _ _) HTp.out _) ?_
      clear hK K
      have HGp := Lib.hid (HGp.out.setRow ([.int .u8 9, .slice A22 n22 c22] : List Value))
      have HGq := Lib.hid (HGq.out.other (show q ≠ p from HXqp.out) (([.int .u8 9, .slice A22 n22 c22] : List Value)).toArray)
      have HGs := Lib.hid (HGs.out.other (show s ≠ p from HXsp.out) (([.int .u8 9, .slice A22 n22 c22] : List Value)).toArray)
      have HO := Lib.hid (World.ownsRow.kept HO.out (grown_setRow u6 p (([.int .u8 9, .slice A22 n22 c22] : List Value)).toArray) (.inr HNp.out))
      have HB := Lib.hid (below_setRow HB.out HTp.out (([.int .u8 9, .slice A22 n22 c22] : List Value)).toArray)
      generalize hgw : u6.setRow p (([.int .u8 9, .slice A22 n22 c22] : List Value)).toArray = u7 at HB HGq HGs HGp HO ⊢
      clear hgw
      try simp only [Act.put, List.getElem_toArray, List.getElem_cons_succ, List.getElem_cons_zero, List.setIfInBounds_toArray, List.set_cons_zero, List.set_cons_succ]
      refine reg_take (v := .int .i64 12) hR 14 rfl (by kernel_rfl) (by kernel_rfl) (by kernel_rfl) (fun _ _ _ h => by cases h.1) (by rfl) ?_ ?_
      · intro W hW; go_simp; try with_reducible rfl
      try simp only [Act.put, List.getElem_toArray, List.getElem_cons_succ, List.getElem_cons_zero, List.setIfInBounds_toArray, List.set_cons_zero, List.set_cons_succ]
      refine reg_step hR 15 (by kernel_rfl) rfl fun K hK => ?_
      try simp only [Act.put, List.getElem_toArray, List.getElem_cons_succ, List.getElem_cons_zero, List.setIfInBounds_toArray, List.set_cons_zero, List.set_cons_succ]
      rw [if_pos (by rfl)]
      refine wp_store_bk 23 _ _ rfl q rfl (cs8 N) z36 rfl HGq.out (by rw [HN8.out]; exact info36) (by rw [HN8.out]; exact len_z36) (cs8_all _) ?_
      refine hK.out _ _ (below_setRow (Below.refl _ _) HTq.out _) ?_
      clear hK K
      have HGq := Lib.hid (HGq.out.setRow (cs8 N))
      have HGs := Lib.hid (HGs.out.other (show s ≠ q from HXqs.out.symm) ((cs8 N)).toArray)
      have HGp := Lib.hid (HGp.out.other (show p ≠ q from HXqp.out.symm) ((cs8 N)).toArray)
      have HO := Lib.hid (World.ownsRow.kept HO.out (grown_setRow u7 q ((cs8 N)).toArray) (.inr HNq.out))
      have HB := Lib.hid (below_setRow HB.out HTq.out ((cs8 N)).toArray)
      generalize hgw : u7.setRow q ((cs8 N)).toArray = u8 at HB HGq HGs HGp HO ⊢
      clear hgw
      try simp only [Act.put, List.getElem_toArray, List.getElem_cons_succ, List.getElem_cons_zero, List.setIfInBounds_toArray, List.set_cons_zero, List.set_cons_succ]
      refine reg_take (v := .int .i64 0) hR 16 rfl (by kernel_rfl) (by kernel_rfl) (by kernel_rfl) (fun _ _ _ h => by cases h.1) (by rfl) ?_ ?_
      · intro W hW; go_simp; try with_reducible rfl
      try simp only [Act.put, List.getElem_toArray, List.getElem_cons_succ, List.getElem_cons_zero, List.setIfInBounds_toArray, List.set_cons_zero, List.set_cons_succ]
      refine reg_done (by kernel_rfl) ?_ _
      refine ⟨rfl, p, q, s, v29, A31, c31, A22, n22, c22, ?_, HTp, HTq, Lib.hid HXqp.out.symm, HGp, HGq, HO, HB⟩
      simp only [frame3, puts, List.foldl_cons, List.foldl_nil, Act.put, List.getElem_toArray, List.getElem_cons_succ, List.getElem_cons_zero, List.setIfInBounds_toArray, List.set_cons_zero, List.set_cons_succ]
  · refine ⟨_, rfl, fun K hK => ?_⟩
    try simp only [Act.put, List.getElem_toArray, List.getElem_cons_succ, List.getElem_cons_zero, List.setIfInBounds_toArray, List.set_cons_zero, List.set_cons_succ]
    rw [if_pos (by rfl)]
    refine wp_alloc_z 31 rfl z31 zero31 ?_
    refine hK.out _ _ ((Below.refl _ _).alloc HB.out.size _) ?_
    clear hK K
    have HGp := Lib.hid (Bk.new u1 z31 31)
    have HXqp := Lib.hid (show q ≠ u1.heap.size from by have h1 := HGq.out.lt; omega)
    have HGq := Lib.hid (HGq.out.old (.cells z31.toArray 31))
    have HTp := Lib.hid (show w5.heap.size ≤ u1.heap.size from HB.out.size)
    have HB := Lib.hid (HB.out.alloc HB.out.size (.cells z31.toArray 31))
    have HLp := Lib.hid (show u1.heap.size < (u1.alloc (.cells z31.toArray 31)).heap.size by simp)
    have HLq := Lib.hid (show q < (u1.alloc (.cells z31.toArray 31)).heap.size by have h1 := HLq.out; have h2 := HLp.out; omega)
    generalize hgw : u1.alloc (.cells z31.toArray 31) = u2 at HB HGq HGp HLq HLp ⊢
    clear hgw
    generalize hgw : u1.heap.size = p at HGp HTp HLp HXqp ⊢
    clear hgw
    try simp only [Act.put, List.getElem_toArray, List.getElem_cons_succ, List.getElem_cons_zero, List.setIfInBounds_toArray, List.set_cons_zero, List.set_cons_succ]
    refine reg_fork (rs := [2, 3]) hR (by kernel_rfl) (by simp) ?_
    intro i hi; simp only [List.mem_cons, List.not_mem_nil, or_false] at hi
    rcases hi with rfl | rfl
    · refine ⟨_, rfl, fun K hK => ?_⟩
      try simp only [Act.put, List.getElem_toArray, List.getElem_cons_succ, List.getElem_cons_zero, List.setIfInBounds_toArray, List.set_cons_zero, List.set_cons_succ]
      rw [if_pos (by rfl)]
      go_simp
      refine (Own_any u2 ((HRB.out.below HB.out).more HB.out.size) (by omega)).mono ?_; rintro e u3 ⟨v29, rfl, ho, hb⟩
      refine hK.out _ _ (show Below _ _ _ from hb.mono HB.out.size) ?_
      clear hK K
      have HGq := Lib.hid (HGq.out.keep hb)
      have HGp := Lib.hid (HGp.out.keep hb)
      have HNq := Lib.hid (show Value.ownBlock (v29) ≠ some q from fun e => by have h1 := (World.ownsRow.lt ho _ e).1; have h2 := HLq.out; omega)
      have HNp := Lib.hid (show Value.ownBlock (v29) ≠ some p from fun e => by have h1 := (World.ownsRow.lt ho _ e).1; have h2 := HLp.out; omega)
      have HO := Lib.hid (Ow.lower ho HB.out.size)
      clear ho
      have HB := Lib.hid (HB.out.trans (hb.mono HB.out.size))
      clear hb
      have HLq := Lib.hid (show q < u3.heap.size from HGq.out.lt)
      have HLp := Lib.hid (show p < u3.heap.size from HGp.out.lt)
      try simp only [Act.put, List.getElem_toArray, List.getElem_cons_succ, List.getElem_cons_zero, List.setIfInBounds_toArray, List.set_cons_zero, List.set_cons_succ]
      refine reg_step hR 3 (by kernel_rfl) rfl fun K hK => ?_
      try simp only [Act.put, List.getElem_toArray, List.getElem_cons_succ, List.getElem_cons_zero, List.setIfInBounds_toArray, List.set_cons_zero, List.set_cons_succ]
      rw [if_pos (by rfl)]
      go_simp
      refine hK.out _ _ ((Below.refl _ _).alloc HB.out.size _) ?_
      clear hK K
      have HGs := Lib.hid (Bk.new u3 ([.int .u8 7] : List Value) 5)
      have HXqs := Lib.hid (show q ≠ u3.heap.size from by have h1 := HGq.out.lt; omega)
      have HGq := Lib.hid (HGq.out.old (.cells ([.int .u8 7] : List Value).toArray 5))
      have HXps := Lib.hid (show p ≠ u3.heap.size from by have h1 := HGp.out.lt; omega)
      have HGp := Lib.hid (HGp.out.old (.cells ([.int .u8 7] : List Value).toArray 5))
      have HNs := Lib.hid (show Value.ownBlock (v29) ≠ some u3.heap.size from fun e => by have h1 := (World.ownsRow.lt HO.out _ e).2; omega)
      have HO := Lib.hid (Ow.alloc HO.out (.cells ([.int .u8 7] : List Value).toArray 5))
      have HTs := Lib.hid (show w5.heap.size ≤ u3.heap.size from HB.out.size)
      have HB := Lib.hid (HB.out.alloc HB.out.size (.cells ([.int .u8 7] : List Value).toArray 5))
      have HLs := Lib.hid (show u3.heap.size < (u3.alloc (.cells ([.int .u8 7] : List Value).toArray 5)).heap.size by simp)
      have HLq := Lib.hid (show q < (u3.alloc (.cells ([.int .u8 7] : List Value).toArray 5)).heap.size by have h1 := HLq.out; have h2 := HLs.out; omega)
      have HLp := Lib.hid (show p < (u3.alloc (.cells ([.int .u8 7] : List Value).toArray 5)).heap.size by have h1 := HLp.out; have h2 := HLs.out; omega)
      generalize hgw : u3.alloc (.cells ([.int .u8 7] : List Value).toArray 5) = u4 at HB HGq HGp HGs HO HLq HLp HLs ⊢
      clear hgw
      generalize hgw : u3.heap.size = s at HGs HTs HLs HXqs HXps HNs ⊢
      clear hgw
      try simp only [Act.put, List.getElem_toArray, List.getElem_cons_succ, List.getElem_cons_zero, List.setIfInBounds_toArray, List.set_cons_zero, List.set_cons_succ]
      refine reg_step hR 4 (by kernel_rfl) rfl fun K hK => ?_
      try simp only [Act.put, List.getElem_toArray, List.getElem_cons_succ, List.getElem_cons_zero, List.setIfInBounds_toArray, List.set_cons_zero, List.set_cons_succ]
      rw [if_pos (by rfl)]
      refine wp_app2 _ _ rfl rfl HO.out rfl (rd7 HGs.out) (by rw [HLB.out]; omega) HB.out.size ?_
      intro v31 u5 ho hg hv
      refine hK.out _ _ (show Below _ _ _ from ⟨hg.os, hg.tape, hg.output, hg.size, fun i hi => hg.block i (Nat.lt_of_lt_of_le hi HB.out.size) (fun e => by have h1 := (World.ownsRow.lt HO.out _ e.symm).1; omega)⟩) ?_
      clear hK K
      have HB := Lib.hid (HB.out.trans (show Below w5.heap.size u4 u5 from ⟨hg.os, hg.tape, hg.output, hg.size, fun i hi => hg.block i (Nat.lt_of_lt_of_le hi HB.out.size) (fun e => by have h1 := (World.ownsRow.lt HO.out _ e.symm).1; omega)⟩))
      have HN1q := Lib.hid (own_ne hv HNq.out HGq.out.lt)
      have HGq := Lib.hid (Bk.grow HGq.out hg HNq.out)
      have HLq := Lib.hid (show q < u5.heap.size from HGq.out.lt)
      have HN1p := Lib.hid (own_ne hv HNp.out HGp.out.lt)
      have HGp := Lib.hid (Bk.grow HGp.out hg HNp.out)
      have HLp := Lib.hid (show p < u5.heap.size from HGp.out.lt)
      have HN1s := Lib.hid (own_ne hv HNs.out HGs.out.lt)
      have HGs := Lib.hid (Bk.grow HGs.out hg HNs.out)
      have HLs := Lib.hid (show s < u5.heap.size from HGs.out.lt)
      obtain ⟨A31, c31, ev, -⟩ := ho.rdN (n := 13) (by rw [List.length_append, HLB.out]; rfl)
      subst ev
      have HO := Lib.hid ho
      clear ho hg hv
      have HNq := HN1q
      clear HN1q
      have HNp := HN1p
      clear HN1p
      have HNs := HN1s
      clear HN1s
      have HRV := Lib.hid (HO.out.rdN (n := 13) (by rw [List.length_append, HLB.out]; rfl))
      try simp only [Act.put, List.getElem_toArray, List.getElem_cons_succ, List.getElem_cons_zero, List.setIfInBounds_toArray, List.set_cons_zero, List.set_cons_succ]
      refine reg_step hR 5 (by kernel_rfl) rfl fun K hK => ?_
      try simp only [Act.put, List.getElem_toArray, List.getElem_cons_succ, List.getElem_cons_zero, List.setIfInBounds_toArray, List.set_cons_zero, List.set_cons_succ]
      rw [if_pos (by rfl)]
      try clear HRV
      go_simp
      refine (HRead.out u5 _ _ (rd_own HO.out (by rw [List.length_append, HLB.out]; rfl))).mono ?_; rintro e u6 ⟨A22, n22, c22, rfl, ho, hb⟩
      refine hK.out _ _ (show Below _ _ _ from hb.mono HB.out.size) ?_
      clear hK K
      have HGq := Lib.hid (HGq.out.keep hb)
      have HGp := Lib.hid (HGp.out.keep hb)
      have HGs := Lib.hid (HGs.out.keep hb)
      have HNq := Lib.hid (show Value.ownBlock (.slice A22 n22 c22) ≠ some q from fun e => by have h1 := (World.ownsRow.lt ho _ e).1; have h2 := HLq.out; omega)
      have HNp := Lib.hid (show Value.ownBlock (.slice A22 n22 c22) ≠ some p from fun e => by have h1 := (World.ownsRow.lt ho _ e).1; have h2 := HLp.out; omega)
      have HNs := Lib.hid (show Value.ownBlock (.slice A22 n22 c22) ≠ some s from fun e => by have h1 := (World.ownsRow.lt ho _ e).1; have h2 := HLs.out; omega)
      have HO := Lib.hid (Ow.lower ho HB.out.size)
      clear ho
      have HB := Lib.hid (HB.out.trans (hb.mono HB.out.size))
      clear hb
      have HLq := Lib.hid (show q < u6.heap.size from HGq.out.lt)
      have HLp := Lib.hid (show p < u6.heap.size from HGp.out.lt)
      have HLs := Lib.hid (show s < u6.heap.size from HGs.out.lt)
      try simp only [Act.put, List.getElem_toArray, List.getElem_cons_succ, List.getElem_cons_zero, List.setIfInBounds_toArray, List.set_cons_zero, List.set_cons_succ]
      refine reg_take (v := .tuple #[.agg #[.int .u8 9, .slice A22 n22 c22], .int .i64 12, .agg (cs8 N).toArray, .int .i64 0]) hR 6 rfl (by kernel_rfl) (by kernel_rfl) (by kernel_rfl) (fun _ _ _ h => by cases h.1) (by rfl) ?_ ?_
      · intro W hW; go_simp; try with_reducible rfl
      try simp only [Act.put, List.getElem_toArray, List.getElem_cons_succ, List.getElem_cons_zero, List.setIfInBounds_toArray, List.set_cons_zero, List.set_cons_succ]
      refine reg_take (v := .agg #[.int .u8 9, .slice A22 n22 c22]) hR 7 rfl (by kernel_rfl) (by kernel_rfl) (by kernel_rfl) (fun _ _ _ h => by cases h.1) (by rfl) ?_ ?_
      · intro W hW; go_simp; try with_reducible rfl
      try simp only [Act.put, List.getElem_toArray, List.getElem_cons_succ, List.getElem_cons_zero, List.setIfInBounds_toArray, List.set_cons_zero, List.set_cons_succ]
      refine reg_take (v := .int .i64 12) hR 8 rfl (by kernel_rfl) (by kernel_rfl) (by kernel_rfl) (fun _ _ _ h => by cases h.1) (by rfl) ?_ ?_
      · intro W hW; go_simp; try with_reducible rfl
      try simp only [Act.put, List.getElem_toArray, List.getElem_cons_succ, List.getElem_cons_zero, List.setIfInBounds_toArray, List.set_cons_zero, List.set_cons_succ]
      refine reg_take (v := .agg (cs8 N).toArray) hR 9 rfl (by kernel_rfl) (by kernel_rfl) (by kernel_rfl) (fun _ _ _ h => by cases h.1) (by rfl) ?_ ?_
      · intro W hW; go_simp; try with_reducible rfl
      try simp only [Act.put, List.getElem_toArray, List.getElem_cons_succ, List.getElem_cons_zero, List.setIfInBounds_toArray, List.set_cons_zero, List.set_cons_succ]
      refine reg_take (v := .int .i64 0) hR 10 rfl (by kernel_rfl) (by kernel_rfl) (by kernel_rfl) (fun _ _ _ h => by cases h.1) (by rfl) ?_ ?_
      · intro W hW; go_simp; try with_reducible rfl
      try simp only [Act.put, List.getElem_toArray, List.getElem_cons_succ, List.getElem_cons_zero, List.setIfInBounds_toArray, List.set_cons_zero, List.set_cons_succ]
      refine reg_step hR 13 (by kernel_rfl) rfl fun K hK => ?_
      try simp only [Act.put, List.getElem_toArray, List.getElem_cons_succ, List.getElem_cons_zero, List.setIfInBounds_toArray, List.set_cons_zero, List.set_cons_succ]
      rw [if_pos (by rfl)]
      refine wp_store_bk 31 _ _ rfl p rfl ([.int .u8 9, .slice A22 n22 c22] : List Value) z31 rfl HGp.out info31 rfl (rec_all _ _ _ _) ?_
      refine hK.out _ _ (below_setRow (Below.refl _ _) HTp.out _) ?_
      clear hK K
      have HGp := Lib.hid (HGp.out.setRow ([.int .u8 9, .slice A22 n22 c22] : List Value))
      have HGq := Lib.hid (HGq.out.other (show q ≠ p from HXqp.out) (([.int .u8 9, .slice A22 n22 c22] : List Value)).toArray)
      have HGs := Lib.hid (HGs.out.other (show s ≠ p from HXps.out.symm) (([.int .u8 9, .slice A22 n22 c22] : List Value)).toArray)
      have HO := Lib.hid (World.ownsRow.kept HO.out (grown_setRow u6 p (([.int .u8 9, .slice A22 n22 c22] : List Value)).toArray) (.inr HNp.out))
      have HB := Lib.hid (below_setRow HB.out HTp.out (([.int .u8 9, .slice A22 n22 c22] : List Value)).toArray)
      generalize hgw : u6.setRow p (([.int .u8 9, .slice A22 n22 c22] : List Value)).toArray = u7 at HB HGq HGp HGs HO ⊢
      clear hgw
      try simp only [Act.put, List.getElem_toArray, List.getElem_cons_succ, List.getElem_cons_zero, List.setIfInBounds_toArray, List.set_cons_zero, List.set_cons_succ]
      refine reg_take (v := .int .i64 12) hR 14 rfl (by kernel_rfl) (by kernel_rfl) (by kernel_rfl) (fun _ _ _ h => by cases h.1) (by rfl) ?_ ?_
      · intro W hW; go_simp; try with_reducible rfl
      try simp only [Act.put, List.getElem_toArray, List.getElem_cons_succ, List.getElem_cons_zero, List.setIfInBounds_toArray, List.set_cons_zero, List.set_cons_succ]
      refine reg_step hR 15 (by kernel_rfl) rfl fun K hK => ?_
      try simp only [Act.put, List.getElem_toArray, List.getElem_cons_succ, List.getElem_cons_zero, List.setIfInBounds_toArray, List.set_cons_zero, List.set_cons_succ]
      rw [if_pos (by rfl)]
      refine wp_store_bk 23 _ _ rfl q rfl (cs8 N) z36 rfl HGq.out (by rw [HN8.out]; exact info36) (by rw [HN8.out]; exact len_z36) (cs8_all _) ?_
      refine hK.out _ _ (below_setRow (Below.refl _ _) HTq.out _) ?_
      clear hK K
      have HGq := Lib.hid (HGq.out.setRow (cs8 N))
      have HGp := Lib.hid (HGp.out.other (show p ≠ q from HXqp.out.symm) ((cs8 N)).toArray)
      have HGs := Lib.hid (HGs.out.other (show s ≠ q from HXqs.out.symm) ((cs8 N)).toArray)
      have HO := Lib.hid (World.ownsRow.kept HO.out (grown_setRow u7 q ((cs8 N)).toArray) (.inr HNq.out))
      have HB := Lib.hid (below_setRow HB.out HTq.out ((cs8 N)).toArray)
      generalize hgw : u7.setRow q ((cs8 N)).toArray = u8 at HB HGq HGp HGs HO ⊢
      clear hgw
      try simp only [Act.put, List.getElem_toArray, List.getElem_cons_succ, List.getElem_cons_zero, List.setIfInBounds_toArray, List.set_cons_zero, List.set_cons_succ]
      refine reg_take (v := .int .i64 0) hR 16 rfl (by kernel_rfl) (by kernel_rfl) (by kernel_rfl) (fun _ _ _ h => by cases h.1) (by rfl) ?_ ?_
      · intro W hW; go_simp; try with_reducible rfl
      try simp only [Act.put, List.getElem_toArray, List.getElem_cons_succ, List.getElem_cons_zero, List.setIfInBounds_toArray, List.set_cons_zero, List.set_cons_succ]
      refine reg_done (by kernel_rfl) ?_ _
      refine ⟨rfl, p, q, s, v29, A31, c31, A22, n22, c22, ?_, HTp, HTq, Lib.hid HXqp.out.symm, HGp, HGq, HO, HB⟩
      simp only [frame3, puts, List.foldl_cons, List.foldl_nil, Act.put, List.getElem_toArray, List.getElem_cons_succ, List.getElem_cons_zero, List.setIfInBounds_toArray, List.set_cons_zero, List.set_cons_succ]
    · refine ⟨_, rfl, fun K hK => ?_⟩
      try simp only [Act.put, List.getElem_toArray, List.getElem_cons_succ, List.getElem_cons_zero, List.setIfInBounds_toArray, List.set_cons_zero, List.set_cons_succ]
      rw [if_pos (by rfl)]
      go_simp
      refine hK.out _ _ ((Below.refl _ _).alloc HB.out.size _) ?_
      clear hK K
      have HGs := Lib.hid (Bk.new u2 ([.int .u8 7] : List Value) 5)
      have HXqs := Lib.hid (show q ≠ u2.heap.size from by have h1 := HGq.out.lt; omega)
      have HGq := Lib.hid (HGq.out.old (.cells ([.int .u8 7] : List Value).toArray 5))
      have HXps := Lib.hid (show p ≠ u2.heap.size from by have h1 := HGp.out.lt; omega)
      have HGp := Lib.hid (HGp.out.old (.cells ([.int .u8 7] : List Value).toArray 5))
      have HTs := Lib.hid (show w5.heap.size ≤ u2.heap.size from HB.out.size)
      have HB := Lib.hid (HB.out.alloc HB.out.size (.cells ([.int .u8 7] : List Value).toArray 5))
      have HLs := Lib.hid (show u2.heap.size < (u2.alloc (.cells ([.int .u8 7] : List Value).toArray 5)).heap.size by simp)
      have HLq := Lib.hid (show q < (u2.alloc (.cells ([.int .u8 7] : List Value).toArray 5)).heap.size by have h1 := HLq.out; have h2 := HLs.out; omega)
      have HLp := Lib.hid (show p < (u2.alloc (.cells ([.int .u8 7] : List Value).toArray 5)).heap.size by have h1 := HLp.out; have h2 := HLs.out; omega)
      generalize hgw : u2.alloc (.cells ([.int .u8 7] : List Value).toArray 5) = u3 at HB HGq HGp HGs HLq HLp HLs ⊢
      clear hgw
      generalize hgw : u2.heap.size = s at HGs HTs HLs HXqs HXps ⊢
      clear hgw
      try simp only [Act.put, List.getElem_toArray, List.getElem_cons_succ, List.getElem_cons_zero, List.setIfInBounds_toArray, List.set_cons_zero, List.set_cons_succ]
      refine reg_step hR 2 (by kernel_rfl) rfl fun K hK => ?_
      try simp only [Act.put, List.getElem_toArray, List.getElem_cons_succ, List.getElem_cons_zero, List.setIfInBounds_toArray, List.set_cons_zero, List.set_cons_succ]
      rw [if_pos (by rfl)]
      go_simp
      refine (Own_any u3 ((HRB.out.below HB.out).more HB.out.size) (by omega)).mono ?_; rintro e u4 ⟨v29, rfl, ho, hb⟩
      refine hK.out _ _ (show Below _ _ _ from hb.mono HB.out.size) ?_
      clear hK K
      have HGq := Lib.hid (HGq.out.keep hb)
      have HGp := Lib.hid (HGp.out.keep hb)
      have HGs := Lib.hid (HGs.out.keep hb)
      have HNq := Lib.hid (show Value.ownBlock (v29) ≠ some q from fun e => by have h1 := (World.ownsRow.lt ho _ e).1; have h2 := HLq.out; omega)
      have HNp := Lib.hid (show Value.ownBlock (v29) ≠ some p from fun e => by have h1 := (World.ownsRow.lt ho _ e).1; have h2 := HLp.out; omega)
      have HNs := Lib.hid (show Value.ownBlock (v29) ≠ some s from fun e => by have h1 := (World.ownsRow.lt ho _ e).1; have h2 := HLs.out; omega)
      have HO := Lib.hid (Ow.lower ho HB.out.size)
      clear ho
      have HB := Lib.hid (HB.out.trans (hb.mono HB.out.size))
      clear hb
      have HLq := Lib.hid (show q < u4.heap.size from HGq.out.lt)
      have HLp := Lib.hid (show p < u4.heap.size from HGp.out.lt)
      have HLs := Lib.hid (show s < u4.heap.size from HGs.out.lt)
      try simp only [Act.put, List.getElem_toArray, List.getElem_cons_succ, List.getElem_cons_zero, List.setIfInBounds_toArray, List.set_cons_zero, List.set_cons_succ]
      refine reg_step hR 4 (by kernel_rfl) rfl fun K hK => ?_
      try simp only [Act.put, List.getElem_toArray, List.getElem_cons_succ, List.getElem_cons_zero, List.setIfInBounds_toArray, List.set_cons_zero, List.set_cons_succ]
      rw [if_pos (by rfl)]
      refine wp_app2 _ _ rfl rfl HO.out rfl (rd7 HGs.out) (by rw [HLB.out]; omega) HB.out.size ?_
      intro v31 u5 ho hg hv
      refine hK.out _ _ (show Below _ _ _ from ⟨hg.os, hg.tape, hg.output, hg.size, fun i hi => hg.block i (Nat.lt_of_lt_of_le hi HB.out.size) (fun e => by have h1 := (World.ownsRow.lt HO.out _ e.symm).1; omega)⟩) ?_
      clear hK K
      have HB := Lib.hid (HB.out.trans (show Below w5.heap.size u4 u5 from ⟨hg.os, hg.tape, hg.output, hg.size, fun i hi => hg.block i (Nat.lt_of_lt_of_le hi HB.out.size) (fun e => by have h1 := (World.ownsRow.lt HO.out _ e.symm).1; omega)⟩))
      have HN1q := Lib.hid (own_ne hv HNq.out HGq.out.lt)
      have HGq := Lib.hid (Bk.grow HGq.out hg HNq.out)
      have HLq := Lib.hid (show q < u5.heap.size from HGq.out.lt)
      have HN1p := Lib.hid (own_ne hv HNp.out HGp.out.lt)
      have HGp := Lib.hid (Bk.grow HGp.out hg HNp.out)
      have HLp := Lib.hid (show p < u5.heap.size from HGp.out.lt)
      have HN1s := Lib.hid (own_ne hv HNs.out HGs.out.lt)
      have HGs := Lib.hid (Bk.grow HGs.out hg HNs.out)
      have HLs := Lib.hid (show s < u5.heap.size from HGs.out.lt)
      obtain ⟨A31, c31, ev, -⟩ := ho.rdN (n := 13) (by rw [List.length_append, HLB.out]; rfl)
      subst ev
      have HO := Lib.hid ho
      clear ho hg hv
      have HNq := HN1q
      clear HN1q
      have HNp := HN1p
      clear HN1p
      have HNs := HN1s
      clear HN1s
      have HRV := Lib.hid (HO.out.rdN (n := 13) (by rw [List.length_append, HLB.out]; rfl))
      try simp only [Act.put, List.getElem_toArray, List.getElem_cons_succ, List.getElem_cons_zero, List.setIfInBounds_toArray, List.set_cons_zero, List.set_cons_succ]
      refine reg_step hR 5 (by kernel_rfl) rfl fun K hK => ?_
      try simp only [Act.put, List.getElem_toArray, List.getElem_cons_succ, List.getElem_cons_zero, List.setIfInBounds_toArray, List.set_cons_zero, List.set_cons_succ]
      rw [if_pos (by rfl)]
      try clear HRV
      go_simp
      refine (HRead.out u5 _ _ (rd_own HO.out (by rw [List.length_append, HLB.out]; rfl))).mono ?_; rintro e u6 ⟨A22, n22, c22, rfl, ho, hb⟩
      refine hK.out _ _ (show Below _ _ _ from hb.mono HB.out.size) ?_
      clear hK K
      have HGq := Lib.hid (HGq.out.keep hb)
      have HGp := Lib.hid (HGp.out.keep hb)
      have HGs := Lib.hid (HGs.out.keep hb)
      have HNq := Lib.hid (show Value.ownBlock (.slice A22 n22 c22) ≠ some q from fun e => by have h1 := (World.ownsRow.lt ho _ e).1; have h2 := HLq.out; omega)
      have HNp := Lib.hid (show Value.ownBlock (.slice A22 n22 c22) ≠ some p from fun e => by have h1 := (World.ownsRow.lt ho _ e).1; have h2 := HLp.out; omega)
      have HNs := Lib.hid (show Value.ownBlock (.slice A22 n22 c22) ≠ some s from fun e => by have h1 := (World.ownsRow.lt ho _ e).1; have h2 := HLs.out; omega)
      have HO := Lib.hid (Ow.lower ho HB.out.size)
      clear ho
      have HB := Lib.hid (HB.out.trans (hb.mono HB.out.size))
      clear hb
      have HLq := Lib.hid (show q < u6.heap.size from HGq.out.lt)
      have HLp := Lib.hid (show p < u6.heap.size from HGp.out.lt)
      have HLs := Lib.hid (show s < u6.heap.size from HGs.out.lt)
      try simp only [Act.put, List.getElem_toArray, List.getElem_cons_succ, List.getElem_cons_zero, List.setIfInBounds_toArray, List.set_cons_zero, List.set_cons_succ]
      refine reg_take (v := .tuple #[.agg #[.int .u8 9, .slice A22 n22 c22], .int .i64 12, .agg (cs8 N).toArray, .int .i64 0]) hR 6 rfl (by kernel_rfl) (by kernel_rfl) (by kernel_rfl) (fun _ _ _ h => by cases h.1) (by rfl) ?_ ?_
      · intro W hW; go_simp; try with_reducible rfl
      try simp only [Act.put, List.getElem_toArray, List.getElem_cons_succ, List.getElem_cons_zero, List.setIfInBounds_toArray, List.set_cons_zero, List.set_cons_succ]
      refine reg_take (v := .agg #[.int .u8 9, .slice A22 n22 c22]) hR 7 rfl (by kernel_rfl) (by kernel_rfl) (by kernel_rfl) (fun _ _ _ h => by cases h.1) (by rfl) ?_ ?_
      · intro W hW; go_simp; try with_reducible rfl
      try simp only [Act.put, List.getElem_toArray, List.getElem_cons_succ, List.getElem_cons_zero, List.setIfInBounds_toArray, List.set_cons_zero, List.set_cons_succ]
      refine reg_take (v := .int .i64 12) hR 8 rfl (by kernel_rfl) (by kernel_rfl) (by kernel_rfl) (fun _ _ _ h => by cases h.1) (by rfl) ?_ ?_
      · intro W hW; go_simp; try with_reducible rfl
      try simp only [Act.put, List.getElem_toArray, List.getElem_cons_succ, List.getElem_cons_zero, List.setIfInBounds_toArray, List.set_cons_zero, List.set_cons_succ]
      refine reg_take (v := .agg (cs8 N).toArray) hR 9 rfl (by kernel_rfl) (by kernel_rfl) (by kernel_rfl) (fun _ _ _ h => by cases h.1) (by rfl) ?_ ?_
      · intro W hW; go_simp; try with_reducible rfl
      try simp only [Act.put, List.getElem_toArray, List.getElem_cons_succ, List.getElem_cons_zero, List.setIfInBounds_toArray, List.set_cons_zero, List.set_cons_succ]
      refine reg_take (v := .int .i64 0) hR 10 rfl (by kernel_rfl) (by kernel_rfl) (by kernel_rfl) (fun _ _ _ h => by cases h.1) (by rfl) ?_ ?_
      · intro W hW; go_simp; try with_reducible rfl
      try simp only [Act.put, List.getElem_toArray, List.getElem_cons_succ, List.getElem_cons_zero, List.setIfInBounds_toArray, List.set_cons_zero, List.set_cons_succ]
      refine reg_step hR 13 (by kernel_rfl) rfl fun K hK => ?_
      try simp only [Act.put, List.getElem_toArray, List.getElem_cons_succ, List.getElem_cons_zero, List.setIfInBounds_toArray, List.set_cons_zero, List.set_cons_succ]
      rw [if_pos (by rfl)]
      refine wp_store_bk 31 _ _ rfl p rfl ([.int .u8 9, .slice A22 n22 c22] : List Value) z31 rfl HGp.out info31 rfl (rec_all _ _ _ _) ?_
      refine hK.out _ _ (below_setRow (Below.refl _ _) HTp.out _) ?_
      clear hK K
      have HGp := Lib.hid (HGp.out.setRow ([.int .u8 9, .slice A22 n22 c22] : List Value))
      have HGq := Lib.hid (HGq.out.other (show q ≠ p from HXqp.out) (([.int .u8 9, .slice A22 n22 c22] : List Value)).toArray)
      have HGs := Lib.hid (HGs.out.other (show s ≠ p from HXps.out.symm) (([.int .u8 9, .slice A22 n22 c22] : List Value)).toArray)
      have HO := Lib.hid (World.ownsRow.kept HO.out (grown_setRow u6 p (([.int .u8 9, .slice A22 n22 c22] : List Value)).toArray) (.inr HNp.out))
      have HB := Lib.hid (below_setRow HB.out HTp.out (([.int .u8 9, .slice A22 n22 c22] : List Value)).toArray)
      generalize hgw : u6.setRow p (([.int .u8 9, .slice A22 n22 c22] : List Value)).toArray = u7 at HB HGq HGp HGs HO ⊢
      clear hgw
      try simp only [Act.put, List.getElem_toArray, List.getElem_cons_succ, List.getElem_cons_zero, List.setIfInBounds_toArray, List.set_cons_zero, List.set_cons_succ]
      refine reg_take (v := .int .i64 12) hR 14 rfl (by kernel_rfl) (by kernel_rfl) (by kernel_rfl) (fun _ _ _ h => by cases h.1) (by rfl) ?_ ?_
      · intro W hW; go_simp; try with_reducible rfl
      try simp only [Act.put, List.getElem_toArray, List.getElem_cons_succ, List.getElem_cons_zero, List.setIfInBounds_toArray, List.set_cons_zero, List.set_cons_succ]
      refine reg_step hR 15 (by kernel_rfl) rfl fun K hK => ?_
      try simp only [Act.put, List.getElem_toArray, List.getElem_cons_succ, List.getElem_cons_zero, List.setIfInBounds_toArray, List.set_cons_zero, List.set_cons_succ]
      rw [if_pos (by rfl)]
      refine wp_store_bk 23 _ _ rfl q rfl (cs8 N) z36 rfl HGq.out (by rw [HN8.out]; exact info36) (by rw [HN8.out]; exact len_z36) (cs8_all _) ?_
      refine hK.out _ _ (below_setRow (Below.refl _ _) HTq.out _) ?_
      clear hK K
      have HGq := Lib.hid (HGq.out.setRow (cs8 N))
      have HGp := Lib.hid (HGp.out.other (show p ≠ q from HXqp.out.symm) ((cs8 N)).toArray)
      have HGs := Lib.hid (HGs.out.other (show s ≠ q from HXqs.out.symm) ((cs8 N)).toArray)
      have HO := Lib.hid (World.ownsRow.kept HO.out (grown_setRow u7 q ((cs8 N)).toArray) (.inr HNq.out))
      have HB := Lib.hid (below_setRow HB.out HTq.out ((cs8 N)).toArray)
      generalize hgw : u7.setRow q ((cs8 N)).toArray = u8 at HB HGq HGp HGs HO ⊢
      clear hgw
      try simp only [Act.put, List.getElem_toArray, List.getElem_cons_succ, List.getElem_cons_zero, List.setIfInBounds_toArray, List.set_cons_zero, List.set_cons_succ]
      refine reg_take (v := .int .i64 0) hR 16 rfl (by kernel_rfl) (by kernel_rfl) (by kernel_rfl) (fun _ _ _ h => by cases h.1) (by rfl) ?_ ?_
      · intro W hW; go_simp; try with_reducible rfl
      try simp only [Act.put, List.getElem_toArray, List.getElem_cons_succ, List.getElem_cons_zero, List.setIfInBounds_toArray, List.set_cons_zero, List.set_cons_succ]
      refine reg_done (by kernel_rfl) ?_ _
      refine ⟨rfl, p, q, s, v29, A31, c31, A22, n22, c22, ?_, HTp, HTq, Lib.hid HXqp.out.symm, HGp, HGq, HO, HB⟩
      simp only [frame3, puts, List.foldl_cons, List.foldl_nil, Act.put, List.getElem_toArray, List.getElem_cons_succ, List.getElem_cons_zero, List.setIfInBounds_toArray, List.set_cons_zero, List.set_cons_succ]
end Go.Proofs.Ytjaoaikcmbfnmaa
