/- Numbers multiplied, and added. -/
import Derived.Test.YtdfaliadkpdfpaaOg
namespace Go.Proofs.Ytdfaliadkpdfpaa
set_option linter.unusedSimpArgs false
set_option linter.unusedVariables false
open Go.RowKit

set_option maxHeartbeats 3200000 in
set_option maxRecDepth 4096 in
theorem MulAdd_any (a b c : Nat) (ha : a < 256 ^ 32) (hb : b < 256 ^ 32) (hc : c < 256 ^ 32) (w : World) : Calls Try.prog 11 #[num a, num b, num c] w fun e w' => e = .returned (num ((a * b + c) % LL)) ∧ Below w.heap.size w w' := by
  have HX : Hid (Bk ((((w.alloc (.cells (cs8 (le 32 a)).toArray 25)).alloc (.cells (cs8 (le 32 b)).toArray 25)).alloc (.cells (cs8 (le 32 c)).toArray 25)).alloc (.cells z25.toArray 25)) (w.heap.size) (cs8 (le 32 a))) := Lib.hid (by
    have := ((((Bk.new w (cs8 (le 32 a)) 25).old (.cells (cs8 (le 32 b)).toArray 25)).old (.cells (cs8 (le 32 c)).toArray 25)).old (.cells z25.toArray 25))
    simpa using this)
  have HY : Hid (Bk ((((w.alloc (.cells (cs8 (le 32 a)).toArray 25)).alloc (.cells (cs8 (le 32 b)).toArray 25)).alloc (.cells (cs8 (le 32 c)).toArray 25)).alloc (.cells z25.toArray 25)) (w.heap.size + 1) (cs8 (le 32 b))) := Lib.hid (by
    have := (((Bk.new (w.alloc (.cells (cs8 (le 32 a)).toArray 25)) (cs8 (le 32 b)) 25).old (.cells (cs8 (le 32 c)).toArray 25)).old (.cells z25.toArray 25))
    simpa using this)
  have HZ : Hid (Bk ((((w.alloc (.cells (cs8 (le 32 a)).toArray 25)).alloc (.cells (cs8 (le 32 b)).toArray 25)).alloc (.cells (cs8 (le 32 c)).toArray 25)).alloc (.cells z25.toArray 25)) (w.heap.size + 1 + 1) (cs8 (le 32 c))) := Lib.hid (by
    have := ((Bk.new ((w.alloc (.cells (cs8 (le 32 a)).toArray 25)).alloc (.cells (cs8 (le 32 b)).toArray 25)) (cs8 (le 32 c)) 25).old (.cells z25.toArray 25))
    simpa using this)
  have HR : Hid (Bk ((((w.alloc (.cells (cs8 (le 32 a)).toArray 25)).alloc (.cells (cs8 (le 32 b)).toArray 25)).alloc (.cells (cs8 (le 32 c)).toArray 25)).alloc (.cells z25.toArray 25)) (w.heap.size + 1 + 1 + 1) z25) := Lib.hid (by
    have := (Bk.new (((w.alloc (.cells (cs8 (le 32 a)).toArray 25)).alloc (.cells (cs8 (le 32 b)).toArray 25)).alloc (.cells (cs8 (le 32 c)).toArray 25)) z25 25)
    simpa using this)
  have HB := Lib.hid (bl_alloc (bl_alloc (bl_alloc (bl_alloc (bl0 w) (.cells (cs8 (le 32 a)).toArray 25)) (.cells (cs8 (le 32 b)).toArray 25)) (.cells (cs8 (le 32 c)).toArray 25)) (.cells z25.toArray 25))
  have HLa := Lib.hid (Nat.mod_lt a LL_pos)
  have HLb := Lib.hid (Nat.mod_lt b LL_pos)
  have HLc := Lib.hid (Nat.mod_lt c LL_pos)
  rw [show num a = .agg (cs8 (le 32 a)).toArray from rfl, show num b = .agg (cs8 (le 32 b)).toArray from rfl, show num c = .agg (cs8 (le 32 c)).toArray from rfl]
  go_enter Try.func11, Try.ntmps11
  go_wp2_with (first | (refine wpList_alloc_z rfl 25 rfl z25 zero25 ?_) | fail)
  generalize ((((w.alloc (.cells (cs8 (le 32 a)).toArray 25)).alloc (.cells (cs8 (le 32 b)).toArray 25)).alloc (.cells (cs8 (le 32 c)).toArray 25)).alloc (.cells z25.toArray 25)) = w1 at HX HY HZ HR HB ⊢
  refine region_meetG (fun a' w' => ∃ p q : Nat, a' = { tmps := #[.agg (cs8 (le 32 a)).toArray, .agg (cs8 (le 32 b)).toArray, .agg (cs8 (le 32 c)).toArray, .pointer (some ⟨w.heap.size, 0, none⟩), .pointer (some ⟨w.heap.size + 1, 0, none⟩), .pointer (some ⟨w.heap.size + 1 + 1, 0, none⟩), .pointer (some ⟨w.heap.size + 1 + 1 + 1, 0, none⟩), .pointer (some ⟨p, 0, none⟩), .pointer (some ⟨q, 0, none⟩), undef, .slice (some ⟨w.heap.size + 1, 0, none⟩) 32 32, .agg (cs64 (wd (b % LL))).toArray, .slice (some ⟨w.heap.size + 1 + 1, 0, none⟩) 32 32, .agg (cs64 (wd (c % LL))).toArray, undef, undef, undef, undef], defers := [] } ∧ p ≠ q ∧ p ≠ w.heap.size + 1 + 1 + 1 ∧ q ≠ w.heap.size + 1 + 1 + 1 ∧ p ≠ w.heap.size ∧ q ≠ w.heap.size ∧ w.heap.size ≤ p ∧ w.heap.size ≤ q ∧
    Hid (Bk w' p (cs64 (wd (b % LL)))) ∧ Hid (Bk w' q (cs64 (wd (c % LL)))) ∧ Hid (Bk w' (w.heap.size) (cs8 (le 32 a))) ∧ Hid (Bk w' (w.heap.size + 1 + 1 + 1) z25) ∧ Hid (Below w.heap.size w w')) ?_ ?_
  · have hR := Tr.stays
    refine reg_start Tr follows_mixed ?_
    have HX := Lib.hid HX.out.drew
    have HY := Lib.hid HY.out.drew
    have HZ := Lib.hid HZ.out.drew
    have HR := Lib.hid HR.out.drew
    have HB := Lib.hid HB.out.drew
    generalize w1.drew = u0 at HX HY HZ HR HB ⊢
    refine reg_take (v := ?_) hR 0 rfl (by kernel_rfl) (by kernel_rfl) (by kernel_rfl) (fun _ _ _ h => by cases h.1) (by rfl) ?_ ?_
    rotate_left
    · intro W hW; go_simp; try with_reducible rfl
    try simp only [Act.put, List.getElem_toArray, List.getElem_cons_succ, List.getElem_cons_zero, List.setIfInBounds_toArray, List.set_cons_zero, List.set_cons_succ]
    refine reg_take (v := ?_) hR 2 rfl (by kernel_rfl) (by kernel_rfl) (by kernel_rfl) (fun _ _ _ h => by cases h.1) (by rfl) ?_ ?_
    rotate_left
    · intro W hW; go_simp; try with_reducible rfl
    try simp only [Act.put, List.getElem_toArray, List.getElem_cons_succ, List.getElem_cons_zero, List.setIfInBounds_toArray, List.set_cons_zero, List.set_cons_succ]
    refine reg_fork (rs := [1, 4, 5]) hR (by kernel_rfl) (by simp) ?_
    intro i hi; simp only [List.mem_cons, List.not_mem_nil, or_false] at hi
    rcases hi with rfl | rfl | rfl
    · refine ⟨_, rfl, fun K hK => ?_⟩
      try simp only [Act.put, List.getElem_toArray, List.getElem_cons_succ, List.getElem_cons_zero, List.setIfInBounds_toArray, List.set_cons_zero, List.set_cons_succ]
      rw [if_pos (by rfl)]
      go_simp
      refine (rest_blk b hb (w.heap.size + 1) _ HY.out).mono ?_; rintro e u1 ⟨rfl, hb⟩
      refine hK.out _ _ trivial ?_
      clear hK K
      have HX := Lib.hid (HX.out.keep hb)
      have HY := Lib.hid (HY.out.keep hb)
      have HZ := Lib.hid (HZ.out.keep hb)
      have HR := Lib.hid (HR.out.keep hb)
      have HB := Lib.hid (bl_call HB.out hb)
      clear hb
      try simp only [Act.put, List.getElem_toArray, List.getElem_cons_succ, List.getElem_cons_zero, List.setIfInBounds_toArray, List.set_cons_zero, List.set_cons_succ]
      refine reg_fork (rs := [3, 4, 5]) hR (by kernel_rfl) (by simp) ?_
      intro i hi; simp only [List.mem_cons, List.not_mem_nil, or_false] at hi
      rcases hi with rfl | rfl | rfl
      · refine ⟨_, rfl, fun K hK => ?_⟩
        try simp only [Act.put, List.getElem_toArray, List.getElem_cons_succ, List.getElem_cons_zero, List.setIfInBounds_toArray, List.set_cons_zero, List.set_cons_succ]
        rw [if_pos (by rfl)]
        go_simp
        refine (rest_blk c hc (w.heap.size + 1 + 1) _ HZ.out).mono ?_; rintro e u2 ⟨rfl, hb⟩
        refine hK.out _ _ trivial ?_
        clear hK K
        have HX := Lib.hid (HX.out.keep hb)
        have HY := Lib.hid (HY.out.keep hb)
        have HZ := Lib.hid (HZ.out.keep hb)
        have HR := Lib.hid (HR.out.keep hb)
        have HB := Lib.hid (bl_call HB.out hb)
        clear hb
        try simp only [Act.put, List.getElem_toArray, List.getElem_cons_succ, List.getElem_cons_zero, List.setIfInBounds_toArray, List.set_cons_zero, List.set_cons_succ]
        refine reg_fork (rs := [4, 5]) hR (by kernel_rfl) (by simp) ?_
        intro i hi; simp only [List.mem_cons, List.not_mem_nil, or_false] at hi
        rcases hi with rfl | rfl
        · refine ⟨_, rfl, fun K hK => ?_⟩
          try simp only [Act.put, List.getElem_toArray, List.getElem_cons_succ, List.getElem_cons_zero, List.setIfInBounds_toArray, List.set_cons_zero, List.set_cons_succ]
          rw [if_pos (by rfl)]
          refine wp_alloc_z 40 rfl z40 zero40 ?_
          refine hK.out _ _ trivial ?_
          clear hK K
          have hnHXp : w.heap.size ≠ u2.heap.size := by have := HX.out.lt; omega
          have hnHYp : w.heap.size + 1 ≠ u2.heap.size := by have := HY.out.lt; omega
          have hnHZp : w.heap.size + 1 + 1 ≠ u2.heap.size := by have := HZ.out.lt; omega
          have hnHRp : w.heap.size + 1 + 1 + 1 ≠ u2.heap.size := by have := HR.out.lt; omega
          have Hp := Lib.hid (Bk.new u2 z40 40)
          have HX := Lib.hid (HX.out.old (.cells z40.toArray 40))
          have HY := Lib.hid (HY.out.old (.cells z40.toArray 40))
          have HZ := Lib.hid (HZ.out.old (.cells z40.toArray 40))
          have HR := Lib.hid (HR.out.old (.cells z40.toArray 40))
          have hlp : w.heap.size ≤ u2.heap.size := HB.out.size
          have HB := Lib.hid (bl_alloc HB.out (.cells z40.toArray 40))
          generalize hg : u2.alloc (.cells z40.toArray 40) = u3 at Hp HX HY HZ HR HB ⊢
          clear hg
          generalize hg : u2.heap.size = p at *
          clear hg
          try simp only [Act.put, List.getElem_toArray, List.getElem_cons_succ, List.getElem_cons_zero, List.setIfInBounds_toArray, List.set_cons_zero, List.set_cons_succ]
          refine reg_step hR 5 (by kernel_rfl) rfl fun K hK => ?_
          try simp only [Act.put, List.getElem_toArray, List.getElem_cons_succ, List.getElem_cons_zero, List.setIfInBounds_toArray, List.set_cons_zero, List.set_cons_succ]
          rw [if_pos (by rfl)]
          refine wp_alloc_z 40 rfl z40 zero40 ?_
          refine hK.out _ _ trivial ?_
          clear hK K
          have hnHXq : w.heap.size ≠ u3.heap.size := by have := HX.out.lt; omega
          have hnHYq : w.heap.size + 1 ≠ u3.heap.size := by have := HY.out.lt; omega
          have hnHZq : w.heap.size + 1 + 1 ≠ u3.heap.size := by have := HZ.out.lt; omega
          have hnHRq : w.heap.size + 1 + 1 + 1 ≠ u3.heap.size := by have := HR.out.lt; omega
          have hnHpq : p ≠ u3.heap.size := by have := Hp.out.lt; omega
          have Hq := Lib.hid (Bk.new u3 z40 40)
          have HX := Lib.hid (HX.out.old (.cells z40.toArray 40))
          have HY := Lib.hid (HY.out.old (.cells z40.toArray 40))
          have HZ := Lib.hid (HZ.out.old (.cells z40.toArray 40))
          have HR := Lib.hid (HR.out.old (.cells z40.toArray 40))
          have Hp := Lib.hid (Hp.out.old (.cells z40.toArray 40))
          have hlq : w.heap.size ≤ u3.heap.size := HB.out.size
          have HB := Lib.hid (bl_alloc HB.out (.cells z40.toArray 40))
          generalize hg : u3.alloc (.cells z40.toArray 40) = u4 at Hq HX HY HZ HR Hp HB ⊢
          clear hg
          generalize hg : u3.heap.size = q at *
          clear hg
          try simp only [Act.put, List.getElem_toArray, List.getElem_cons_succ, List.getElem_cons_zero, List.setIfInBounds_toArray, List.set_cons_zero, List.set_cons_succ]
          refine reg_step hR 6 (by kernel_rfl) rfl fun K hK => ?_
          try simp only [Act.put, List.getElem_toArray, List.getElem_cons_succ, List.getElem_cons_zero, List.setIfInBounds_toArray, List.set_cons_zero, List.set_cons_succ]
          rw [if_pos (by rfl)]
          refine wp_store_bk 40 _ _ rfl p rfl (cs64 (wd (b % LL))) z40 rfl Hp.out (wd_info _) (wd_zlen _) (cs64_one _) ?_
          refine hK.out _ _ trivial ?_
          clear hK K
          have HX := Lib.hid (HX.out.other (show w.heap.size ≠ p by omega) (cs64 (wd (b % LL))).toArray)
          have HY := Lib.hid (HY.out.other (show w.heap.size + 1 ≠ p by omega) (cs64 (wd (b % LL))).toArray)
          have HZ := Lib.hid (HZ.out.other (show w.heap.size + 1 + 1 ≠ p by omega) (cs64 (wd (b % LL))).toArray)
          have HR := Lib.hid (HR.out.other (show w.heap.size + 1 + 1 + 1 ≠ p by omega) (cs64 (wd (b % LL))).toArray)
          have Hp := Lib.hid (Hp.out.setRow (cs64 (wd (b % LL))))
          have Hq := Lib.hid (Hq.out.other (show q ≠ p by omega) (cs64 (wd (b % LL))).toArray)
          have HB := Lib.hid (bl_setRow HB.out (show w.heap.size ≤ p by omega) (cs64 (wd (b % LL))).toArray)
          generalize hg : u4.setRow p (cs64 (wd (b % LL))).toArray = u5 at HX HY HZ HR Hp Hq HB ⊢
          clear hg
          try simp only [Act.put, List.getElem_toArray, List.getElem_cons_succ, List.getElem_cons_zero, List.setIfInBounds_toArray, List.set_cons_zero, List.set_cons_succ]
          refine reg_step hR 7 (by kernel_rfl) rfl fun K hK => ?_
          try simp only [Act.put, List.getElem_toArray, List.getElem_cons_succ, List.getElem_cons_zero, List.setIfInBounds_toArray, List.set_cons_zero, List.set_cons_succ]
          rw [if_pos (by rfl)]
          refine wp_store_bk 40 _ _ rfl q rfl (cs64 (wd (c % LL))) z40 rfl Hq.out (wd_info _) (wd_zlen _) (cs64_one _) ?_
          refine hK.out _ _ trivial ?_
          clear hK K
          have HX := Lib.hid (HX.out.other (show w.heap.size ≠ q by omega) (cs64 (wd (c % LL))).toArray)
          have HY := Lib.hid (HY.out.other (show w.heap.size + 1 ≠ q by omega) (cs64 (wd (c % LL))).toArray)
          have HZ := Lib.hid (HZ.out.other (show w.heap.size + 1 + 1 ≠ q by omega) (cs64 (wd (c % LL))).toArray)
          have HR := Lib.hid (HR.out.other (show w.heap.size + 1 + 1 + 1 ≠ q by omega) (cs64 (wd (c % LL))).toArray)
          have Hp := Lib.hid (Hp.out.other (show p ≠ q by omega) (cs64 (wd (c % LL))).toArray)
          have Hq := Lib.hid (Hq.out.setRow (cs64 (wd (c % LL))))
          have HB := Lib.hid (bl_setRow HB.out (show w.heap.size ≤ q by omega) (cs64 (wd (c % LL))).toArray)
          generalize hg : u5.setRow q (cs64 (wd (c % LL))).toArray = u6 at HX HY HZ HR Hp Hq HB ⊢
          clear hg
          try simp only [Act.put, List.getElem_toArray, List.getElem_cons_succ, List.getElem_cons_zero, List.setIfInBounds_toArray, List.set_cons_zero, List.set_cons_succ]
          refine reg_done (by kernel_rfl) ?_ _
          exact ⟨rfl, p, q, rfl, by omega, by omega, by omega, by omega, by omega, by omega, by omega, Hp, Hq, HX, HR, HB⟩
        · refine ⟨_, rfl, fun K hK => ?_⟩
          try simp only [Act.put, List.getElem_toArray, List.getElem_cons_succ, List.getElem_cons_zero, List.setIfInBounds_toArray, List.set_cons_zero, List.set_cons_succ]
          rw [if_pos (by rfl)]
          refine wp_alloc_z 40 rfl z40 zero40 ?_
          refine hK.out _ _ trivial ?_
          clear hK K
          have hnHXq : w.heap.size ≠ u2.heap.size := by have := HX.out.lt; omega
          have hnHYq : w.heap.size + 1 ≠ u2.heap.size := by have := HY.out.lt; omega
          have hnHZq : w.heap.size + 1 + 1 ≠ u2.heap.size := by have := HZ.out.lt; omega
          have hnHRq : w.heap.size + 1 + 1 + 1 ≠ u2.heap.size := by have := HR.out.lt; omega
          have Hq := Lib.hid (Bk.new u2 z40 40)
          have HX := Lib.hid (HX.out.old (.cells z40.toArray 40))
          have HY := Lib.hid (HY.out.old (.cells z40.toArray 40))
          have HZ := Lib.hid (HZ.out.old (.cells z40.toArray 40))
          have HR := Lib.hid (HR.out.old (.cells z40.toArray 40))
          have hlq : w.heap.size ≤ u2.heap.size := HB.out.size
          have HB := Lib.hid (bl_alloc HB.out (.cells z40.toArray 40))
          generalize hg : u2.alloc (.cells z40.toArray 40) = u3 at Hq HX HY HZ HR HB ⊢
          clear hg
          generalize hg : u2.heap.size = q at *
          clear hg
          try simp only [Act.put, List.getElem_toArray, List.getElem_cons_succ, List.getElem_cons_zero, List.setIfInBounds_toArray, List.set_cons_zero, List.set_cons_succ]
          refine reg_step hR 4 (by kernel_rfl) rfl fun K hK => ?_
          try simp only [Act.put, List.getElem_toArray, List.getElem_cons_succ, List.getElem_cons_zero, List.setIfInBounds_toArray, List.set_cons_zero, List.set_cons_succ]
          rw [if_pos (by rfl)]
          refine wp_alloc_z 40 rfl z40 zero40 ?_
          refine hK.out _ _ trivial ?_
          clear hK K
          have hnHXp : w.heap.size ≠ u3.heap.size := by have := HX.out.lt; omega
          have hnHYp : w.heap.size + 1 ≠ u3.heap.size := by have := HY.out.lt; omega
          have hnHZp : w.heap.size + 1 + 1 ≠ u3.heap.size := by have := HZ.out.lt; omega
          have hnHRp : w.heap.size + 1 + 1 + 1 ≠ u3.heap.size := by have := HR.out.lt; omega
          have hnHqp : q ≠ u3.heap.size := by have := Hq.out.lt; omega
          have Hp := Lib.hid (Bk.new u3 z40 40)
          have HX := Lib.hid (HX.out.old (.cells z40.toArray 40))
          have HY := Lib.hid (HY.out.old (.cells z40.toArray 40))
          have HZ := Lib.hid (HZ.out.old (.cells z40.toArray 40))
          have HR := Lib.hid (HR.out.old (.cells z40.toArray 40))
          have Hq := Lib.hid (Hq.out.old (.cells z40.toArray 40))
          have hlp : w.heap.size ≤ u3.heap.size := HB.out.size
          have HB := Lib.hid (bl_alloc HB.out (.cells z40.toArray 40))
          generalize hg : u3.alloc (.cells z40.toArray 40) = u4 at Hp HX HY HZ HR Hq HB ⊢
          clear hg
          generalize hg : u3.heap.size = p at *
          clear hg
          try simp only [Act.put, List.getElem_toArray, List.getElem_cons_succ, List.getElem_cons_zero, List.setIfInBounds_toArray, List.set_cons_zero, List.set_cons_succ]
          refine reg_step hR 6 (by kernel_rfl) rfl fun K hK => ?_
          try simp only [Act.put, List.getElem_toArray, List.getElem_cons_succ, List.getElem_cons_zero, List.setIfInBounds_toArray, List.set_cons_zero, List.set_cons_succ]
          rw [if_pos (by rfl)]
          refine wp_store_bk 40 _ _ rfl p rfl (cs64 (wd (b % LL))) z40 rfl Hp.out (wd_info _) (wd_zlen _) (cs64_one _) ?_
          refine hK.out _ _ trivial ?_
          clear hK K
          have HX := Lib.hid (HX.out.other (show w.heap.size ≠ p by omega) (cs64 (wd (b % LL))).toArray)
          have HY := Lib.hid (HY.out.other (show w.heap.size + 1 ≠ p by omega) (cs64 (wd (b % LL))).toArray)
          have HZ := Lib.hid (HZ.out.other (show w.heap.size + 1 + 1 ≠ p by omega) (cs64 (wd (b % LL))).toArray)
          have HR := Lib.hid (HR.out.other (show w.heap.size + 1 + 1 + 1 ≠ p by omega) (cs64 (wd (b % LL))).toArray)
          have Hq := Lib.hid (Hq.out.other (show q ≠ p by omega) (cs64 (wd (b % LL))).toArray)
          have Hp := Lib.hid (Hp.out.setRow (cs64 (wd (b % LL))))
          have HB := Lib.hid (bl_setRow HB.out (show w.heap.size ≤ p by omega) (cs64 (wd (b % LL))).toArray)
          generalize hg : u4.setRow p (cs64 (wd (b % LL))).toArray = u5 at HX HY HZ HR Hq Hp HB ⊢
          clear hg
          try simp only [Act.put, List.getElem_toArray, List.getElem_cons_succ, List.getElem_cons_zero, List.setIfInBounds_toArray, List.set_cons_zero, List.set_cons_succ]
          refine reg_step hR 7 (by kernel_rfl) rfl fun K hK => ?_
          try simp only [Act.put, List.getElem_toArray, List.getElem_cons_succ, List.getElem_cons_zero, List.setIfInBounds_toArray, List.set_cons_zero, List.set_cons_succ]
          rw [if_pos (by rfl)]
          refine wp_store_bk 40 _ _ rfl q rfl (cs64 (wd (c % LL))) z40 rfl Hq.out (wd_info _) (wd_zlen _) (cs64_one _) ?_
          refine hK.out _ _ trivial ?_
          clear hK K
          have HX := Lib.hid (HX.out.other (show w.heap.size ≠ q by omega) (cs64 (wd (c % LL))).toArray)
          have HY := Lib.hid (HY.out.other (show w.heap.size + 1 ≠ q by omega) (cs64 (wd (c % LL))).toArray)
          have HZ := Lib.hid (HZ.out.other (show w.heap.size + 1 + 1 ≠ q by omega) (cs64 (wd (c % LL))).toArray)
          have HR := Lib.hid (HR.out.other (show w.heap.size + 1 + 1 + 1 ≠ q by omega) (cs64 (wd (c % LL))).toArray)
          have Hq := Lib.hid (Hq.out.setRow (cs64 (wd (c % LL))))
          have Hp := Lib.hid (Hp.out.other (show p ≠ q by omega) (cs64 (wd (c % LL))).toArray)
          have HB := Lib.hid (bl_setRow HB.out (show w.heap.size ≤ q by omega) (cs64 (wd (c % LL))).toArray)
          generalize hg : u5.setRow q (cs64 (wd (c % LL))).toArray = u6 at HX HY HZ HR Hq Hp HB ⊢
          clear hg
          try simp only [Act.put, List.getElem_toArray, List.getElem_cons_succ, List.getElem_cons_zero, List.setIfInBounds_toArray, List.set_cons_zero, List.set_cons_succ]
          refine reg_done (by kernel_rfl) ?_ _
          exact ⟨rfl, p, q, rfl, by omega, by omega, by omega, by omega, by omega, by omega, by omega, Hp, Hq, HX, HR, HB⟩
      · refine ⟨_, rfl, fun K hK => ?_⟩
        try simp only [Act.put, List.getElem_toArray, List.getElem_cons_succ, List.getElem_cons_zero, List.setIfInBounds_toArray, List.set_cons_zero, List.set_cons_succ]
        rw [if_pos (by rfl)]
        refine wp_alloc_z 40 rfl z40 zero40 ?_
        refine hK.out _ _ trivial ?_
        clear hK K
        have hnHXp : w.heap.size ≠ u1.heap.size := by have := HX.out.lt; omega
        have hnHYp : w.heap.size + 1 ≠ u1.heap.size := by have := HY.out.lt; omega
        have hnHZp : w.heap.size + 1 + 1 ≠ u1.heap.size := by have := HZ.out.lt; omega
        have hnHRp : w.heap.size + 1 + 1 + 1 ≠ u1.heap.size := by have := HR.out.lt; omega
        have Hp := Lib.hid (Bk.new u1 z40 40)
        have HX := Lib.hid (HX.out.old (.cells z40.toArray 40))
        have HY := Lib.hid (HY.out.old (.cells z40.toArray 40))
        have HZ := Lib.hid (HZ.out.old (.cells z40.toArray 40))
        have HR := Lib.hid (HR.out.old (.cells z40.toArray 40))
        have hlp : w.heap.size ≤ u1.heap.size := HB.out.size
        have HB := Lib.hid (bl_alloc HB.out (.cells z40.toArray 40))
        generalize hg : u1.alloc (.cells z40.toArray 40) = u2 at Hp HX HY HZ HR HB ⊢
        clear hg
        generalize hg : u1.heap.size = p at *
        clear hg
        try simp only [Act.put, List.getElem_toArray, List.getElem_cons_succ, List.getElem_cons_zero, List.setIfInBounds_toArray, List.set_cons_zero, List.set_cons_succ]
        refine reg_fork (rs := [3, 5]) hR (by kernel_rfl) (by simp) ?_
        intro i hi; simp only [List.mem_cons, List.not_mem_nil, or_false] at hi
        rcases hi with rfl | rfl
        · refine ⟨_, rfl, fun K hK => ?_⟩
          try simp only [Act.put, List.getElem_toArray, List.getElem_cons_succ, List.getElem_cons_zero, List.setIfInBounds_toArray, List.set_cons_zero, List.set_cons_succ]
          rw [if_pos (by rfl)]
          go_simp
          refine (rest_blk c hc (w.heap.size + 1 + 1) _ HZ.out).mono ?_; rintro e u3 ⟨rfl, hb⟩
          refine hK.out _ _ trivial ?_
          clear hK K
          have HX := Lib.hid (HX.out.keep hb)
          have HY := Lib.hid (HY.out.keep hb)
          have HZ := Lib.hid (HZ.out.keep hb)
          have HR := Lib.hid (HR.out.keep hb)
          have Hp := Lib.hid (Hp.out.keep hb)
          have HB := Lib.hid (bl_call HB.out hb)
          clear hb
          try simp only [Act.put, List.getElem_toArray, List.getElem_cons_succ, List.getElem_cons_zero, List.setIfInBounds_toArray, List.set_cons_zero, List.set_cons_succ]
          refine reg_step hR 5 (by kernel_rfl) rfl fun K hK => ?_
          try simp only [Act.put, List.getElem_toArray, List.getElem_cons_succ, List.getElem_cons_zero, List.setIfInBounds_toArray, List.set_cons_zero, List.set_cons_succ]
          rw [if_pos (by rfl)]
          refine wp_alloc_z 40 rfl z40 zero40 ?_
          refine hK.out _ _ trivial ?_
          clear hK K
          have hnHXq : w.heap.size ≠ u3.heap.size := by have := HX.out.lt; omega
          have hnHYq : w.heap.size + 1 ≠ u3.heap.size := by have := HY.out.lt; omega
          have hnHZq : w.heap.size + 1 + 1 ≠ u3.heap.size := by have := HZ.out.lt; omega
          have hnHRq : w.heap.size + 1 + 1 + 1 ≠ u3.heap.size := by have := HR.out.lt; omega
          have hnHpq : p ≠ u3.heap.size := by have := Hp.out.lt; omega
          have Hq := Lib.hid (Bk.new u3 z40 40)
          have HX := Lib.hid (HX.out.old (.cells z40.toArray 40))
          have HY := Lib.hid (HY.out.old (.cells z40.toArray 40))
          have HZ := Lib.hid (HZ.out.old (.cells z40.toArray 40))
          have HR := Lib.hid (HR.out.old (.cells z40.toArray 40))
          have Hp := Lib.hid (Hp.out.old (.cells z40.toArray 40))
          have hlq : w.heap.size ≤ u3.heap.size := HB.out.size
          have HB := Lib.hid (bl_alloc HB.out (.cells z40.toArray 40))
          generalize hg : u3.alloc (.cells z40.toArray 40) = u4 at Hq HX HY HZ HR Hp HB ⊢
          clear hg
          generalize hg : u3.heap.size = q at *
          clear hg
          try simp only [Act.put, List.getElem_toArray, List.getElem_cons_succ, List.getElem_cons_zero, List.setIfInBounds_toArray, List.set_cons_zero, List.set_cons_succ]
          refine reg_step hR 6 (by kernel_rfl) rfl fun K hK => ?_
          try simp only [Act.put, List.getElem_toArray, List.getElem_cons_succ, List.getElem_cons_zero, List.setIfInBounds_toArray, List.set_cons_zero, List.set_cons_succ]
          rw [if_pos (by rfl)]
          refine wp_store_bk 40 _ _ rfl p rfl (cs64 (wd (b % LL))) z40 rfl Hp.out (wd_info _) (wd_zlen _) (cs64_one _) ?_
          refine hK.out _ _ trivial ?_
          clear hK K
          have HX := Lib.hid (HX.out.other (show w.heap.size ≠ p by omega) (cs64 (wd (b % LL))).toArray)
          have HY := Lib.hid (HY.out.other (show w.heap.size + 1 ≠ p by omega) (cs64 (wd (b % LL))).toArray)
          have HZ := Lib.hid (HZ.out.other (show w.heap.size + 1 + 1 ≠ p by omega) (cs64 (wd (b % LL))).toArray)
          have HR := Lib.hid (HR.out.other (show w.heap.size + 1 + 1 + 1 ≠ p by omega) (cs64 (wd (b % LL))).toArray)
          have Hp := Lib.hid (Hp.out.setRow (cs64 (wd (b % LL))))
          have Hq := Lib.hid (Hq.out.other (show q ≠ p by omega) (cs64 (wd (b % LL))).toArray)
          have HB := Lib.hid (bl_setRow HB.out (show w.heap.size ≤ p by omega) (cs64 (wd (b % LL))).toArray)
          generalize hg : u4.setRow p (cs64 (wd (b % LL))).toArray = u5 at HX HY HZ HR Hp Hq HB ⊢
          clear hg
          try simp only [Act.put, List.getElem_toArray, List.getElem_cons_succ, List.getElem_cons_zero, List.setIfInBounds_toArray, List.set_cons_zero, List.set_cons_succ]
          refine reg_step hR 7 (by kernel_rfl) rfl fun K hK => ?_
          try simp only [Act.put, List.getElem_toArray, List.getElem_cons_succ, List.getElem_cons_zero, List.setIfInBounds_toArray, List.set_cons_zero, List.set_cons_succ]
          rw [if_pos (by rfl)]
          refine wp_store_bk 40 _ _ rfl q rfl (cs64 (wd (c % LL))) z40 rfl Hq.out (wd_info _) (wd_zlen _) (cs64_one _) ?_
          refine hK.out _ _ trivial ?_
          clear hK K
          have HX := Lib.hid (HX.out.other (show w.heap.size ≠ q by omega) (cs64 (wd (c % LL))).toArray)
          have HY := Lib.hid (HY.out.other (show w.heap.size + 1 ≠ q by omega) (cs64 (wd (c % LL))).toArray)
          have HZ := Lib.hid (HZ.out.other (show w.heap.size + 1 + 1 ≠ q by omega) (cs64 (wd (c % LL))).toArray)
          have HR := Lib.hid (HR.out.other (show w.heap.size + 1 + 1 + 1 ≠ q by omega) (cs64 (wd (c % LL))).toArray)
          have Hp := Lib.hid (Hp.out.other (show p ≠ q by omega) (cs64 (wd (c % LL))).toArray)
          have Hq := Lib.hid (Hq.out.setRow (cs64 (wd (c % LL))))
          have HB := Lib.hid (bl_setRow HB.out (show w.heap.size ≤ q by omega) (cs64 (wd (c % LL))).toArray)
          generalize hg : u5.setRow q (cs64 (wd (c % LL))).toArray = u6 at HX HY HZ HR Hp Hq HB ⊢
          clear hg
          try simp only [Act.put, List.getElem_toArray, List.getElem_cons_succ, List.getElem_cons_zero, List.setIfInBounds_toArray, List.set_cons_zero, List.set_cons_succ]
          refine reg_done (by kernel_rfl) ?_ _
          exact ⟨rfl, p, q, rfl, by omega, by omega, by omega, by omega, by omega, by omega, by omega, Hp, Hq, HX, HR, HB⟩
        · refine ⟨_, rfl, fun K hK => ?_⟩
          try simp only [Act.put, List.getElem_toArray, List.getElem_cons_succ, List.getElem_cons_zero, List.setIfInBounds_toArray, List.set_cons_zero, List.set_cons_succ]
          rw [if_pos (by rfl)]
          refine wp_alloc_z 40 rfl z40 zero40 ?_
          refine hK.out _ _ trivial ?_
          clear hK K
          have hnHXq : w.heap.size ≠ u2.heap.size := by have := HX.out.lt; omega
          have hnHYq : w.heap.size + 1 ≠ u2.heap.size := by have := HY.out.lt; omega
          have hnHZq : w.heap.size + 1 + 1 ≠ u2.heap.size := by have := HZ.out.lt; omega
          have hnHRq : w.heap.size + 1 + 1 + 1 ≠ u2.heap.size := by have := HR.out.lt; omega
          have hnHpq : p ≠ u2.heap.size := by have := Hp.out.lt; omega
          have Hq := Lib.hid (Bk.new u2 z40 40)
          have HX := Lib.hid (HX.out.old (.cells z40.toArray 40))
          have HY := Lib.hid (HY.out.old (.cells z40.toArray 40))
          have HZ := Lib.hid (HZ.out.old (.cells z40.toArray 40))
          have HR := Lib.hid (HR.out.old (.cells z40.toArray 40))
          have Hp := Lib.hid (Hp.out.old (.cells z40.toArray 40))
          have hlq : w.heap.size ≤ u2.heap.size := HB.out.size
          have HB := Lib.hid (bl_alloc HB.out (.cells z40.toArray 40))
          generalize hg : u2.alloc (.cells z40.toArray 40) = u3 at Hq HX HY HZ HR Hp HB ⊢
          clear hg
          generalize hg : u2.heap.size = q at *
          clear hg
          try simp only [Act.put, List.getElem_toArray, List.getElem_cons_succ, List.getElem_cons_zero, List.setIfInBounds_toArray, List.set_cons_zero, List.set_cons_succ]
          refine reg_step hR 3 (by kernel_rfl) rfl fun K hK => ?_
          try simp only [Act.put, List.getElem_toArray, List.getElem_cons_succ, List.getElem_cons_zero, List.setIfInBounds_toArray, List.set_cons_zero, List.set_cons_succ]
          rw [if_pos (by rfl)]
          go_simp
          refine (rest_blk c hc (w.heap.size + 1 + 1) _ HZ.out).mono ?_; rintro e u4 ⟨rfl, hb⟩
          refine hK.out _ _ trivial ?_
          clear hK K
          have HX := Lib.hid (HX.out.keep hb)
          have HY := Lib.hid (HY.out.keep hb)
          have HZ := Lib.hid (HZ.out.keep hb)
          have HR := Lib.hid (HR.out.keep hb)
          have Hp := Lib.hid (Hp.out.keep hb)
          have Hq := Lib.hid (Hq.out.keep hb)
          have HB := Lib.hid (bl_call HB.out hb)
          clear hb
          try simp only [Act.put, List.getElem_toArray, List.getElem_cons_succ, List.getElem_cons_zero, List.setIfInBounds_toArray, List.set_cons_zero, List.set_cons_succ]
          refine reg_step hR 6 (by kernel_rfl) rfl fun K hK => ?_
          try simp only [Act.put, List.getElem_toArray, List.getElem_cons_succ, List.getElem_cons_zero, List.setIfInBounds_toArray, List.set_cons_zero, List.set_cons_succ]
          rw [if_pos (by rfl)]
          refine wp_store_bk 40 _ _ rfl p rfl (cs64 (wd (b % LL))) z40 rfl Hp.out (wd_info _) (wd_zlen _) (cs64_one _) ?_
          refine hK.out _ _ trivial ?_
          clear hK K
          have HX := Lib.hid (HX.out.other (show w.heap.size ≠ p by omega) (cs64 (wd (b % LL))).toArray)
          have HY := Lib.hid (HY.out.other (show w.heap.size + 1 ≠ p by omega) (cs64 (wd (b % LL))).toArray)
          have HZ := Lib.hid (HZ.out.other (show w.heap.size + 1 + 1 ≠ p by omega) (cs64 (wd (b % LL))).toArray)
          have HR := Lib.hid (HR.out.other (show w.heap.size + 1 + 1 + 1 ≠ p by omega) (cs64 (wd (b % LL))).toArray)
          have Hp := Lib.hid (Hp.out.setRow (cs64 (wd (b % LL))))
          have Hq := Lib.hid (Hq.out.other (show q ≠ p by omega) (cs64 (wd (b % LL))).toArray)
          have HB := Lib.hid (bl_setRow HB.out (show w.heap.size ≤ p by omega) (cs64 (wd (b % LL))).toArray)
          generalize hg : u4.setRow p (cs64 (wd (b % LL))).toArray = u5 at HX HY HZ HR Hp Hq HB ⊢
          clear hg
          try simp only [Act.put, List.getElem_toArray, List.getElem_cons_succ, List.getElem_cons_zero, List.setIfInBounds_toArray, List.set_cons_zero, List.set_cons_succ]
          refine reg_step hR 7 (by kernel_rfl) rfl fun K hK => ?_
          try simp only [Act.put, List.getElem_toArray, List.getElem_cons_succ, List.getElem_cons_zero, List.setIfInBounds_toArray, List.set_cons_zero, List.set_cons_succ]
          rw [if_pos (by rfl)]
          refine wp_store_bk 40 _ _ rfl q rfl (cs64 (wd (c % LL))) z40 rfl Hq.out (wd_info _) (wd_zlen _) (cs64_one _) ?_
          refine hK.out _ _ trivial ?_
          clear hK K
          have HX := Lib.hid (HX.out.other (show w.heap.size ≠ q by omega) (cs64 (wd (c % LL))).toArray)
          have HY := Lib.hid (HY.out.other (show w.heap.size + 1 ≠ q by omega) (cs64 (wd (c % LL))).toArray)
          have HZ := Lib.hid (HZ.out.other (show w.heap.size + 1 + 1 ≠ q by omega) (cs64 (wd (c % LL))).toArray)
          have HR := Lib.hid (HR.out.other (show w.heap.size + 1 + 1 + 1 ≠ q by omega) (cs64 (wd (c % LL))).toArray)
          have Hp := Lib.hid (Hp.out.other (show p ≠ q by omega) (cs64 (wd (c % LL))).toArray)
          have Hq := Lib.hid (Hq.out.setRow (cs64 (wd (c % LL))))
          have HB := Lib.hid (bl_setRow HB.out (show w.heap.size ≤ q by omega) (cs64 (wd (c % LL))).toArray)
          generalize hg : u5.setRow q (cs64 (wd (c % LL))).toArray = u6 at HX HY HZ HR Hp Hq HB ⊢
          clear hg
          try simp only [Act.put, List.getElem_toArray, List.getElem_cons_succ, List.getElem_cons_zero, List.setIfInBounds_toArray, List.set_cons_zero, List.set_cons_succ]
          refine reg_done (by kernel_rfl) ?_ _
          exact ⟨rfl, p, q, rfl, by omega, by omega, by omega, by omega, by omega, by omega, by omega, Hp, Hq, HX, HR, HB⟩
      · refine ⟨_, rfl, fun K hK => ?_⟩
        try simp only [Act.put, List.getElem_toArray, List.getElem_cons_succ, List.getElem_cons_zero, List.setIfInBounds_toArray, List.set_cons_zero, List.set_cons_succ]
        rw [if_pos (by rfl)]
        refine wp_alloc_z 40 rfl z40 zero40 ?_
        refine hK.out _ _ trivial ?_
        clear hK K
        have hnHXq : w.heap.size ≠ u1.heap.size := by have := HX.out.lt; omega
        have hnHYq : w.heap.size + 1 ≠ u1.heap.size := by have := HY.out.lt; omega
        have hnHZq : w.heap.size + 1 + 1 ≠ u1.heap.size := by have := HZ.out.lt; omega
        have hnHRq : w.heap.size + 1 + 1 + 1 ≠ u1.heap.size := by have := HR.out.lt; omega
        have Hq := Lib.hid (Bk.new u1 z40 40)
        have HX := Lib.hid (HX.out.old (.cells z40.toArray 40))
        have HY := Lib.hid (HY.out.old (.cells z40.toArray 40))
        have HZ := Lib.hid (HZ.out.old (.cells z40.toArray 40))
        have HR := Lib.hid (HR.out.old (.cells z40.toArray 40))
        have hlq : w.heap.size ≤ u1.heap.size := HB.out.size
        have HB := Lib.hid (bl_alloc HB.out (.cells z40.toArray 40))
        generalize hg : u1.alloc (.cells z40.toArray 40) = u2 at Hq HX HY HZ HR HB ⊢
        clear hg
        generalize hg : u1.heap.size = q at *
        clear hg
        try simp only [Act.put, List.getElem_toArray, List.getElem_cons_succ, List.getElem_cons_zero, List.setIfInBounds_toArray, List.set_cons_zero, List.set_cons_succ]
        refine reg_fork (rs := [3, 4]) hR (by kernel_rfl) (by simp) ?_
        intro i hi; simp only [List.mem_cons, List.not_mem_nil, or_false] at hi
        rcases hi with rfl | rfl
        · refine ⟨_, rfl, fun K hK => ?_⟩
          try simp only [Act.put, List.getElem_toArray, List.getElem_cons_succ, List.getElem_cons_zero, List.setIfInBounds_toArray, List.set_cons_zero, List.set_cons_succ]
          rw [if_pos (by rfl)]
          go_simp
          refine (rest_blk c hc (w.heap.size + 1 + 1) _ HZ.out).mono ?_; rintro e u3 ⟨rfl, hb⟩
          refine hK.out _ _ trivial ?_
          clear hK K
          have HX := Lib.hid (HX.out.keep hb)
          have HY := Lib.hid (HY.out.keep hb)
          have HZ := Lib.hid (HZ.out.keep hb)
          have HR := Lib.hid (HR.out.keep hb)
          have Hq := Lib.hid (Hq.out.keep hb)
          have HB := Lib.hid (bl_call HB.out hb)
          clear hb
          try simp only [Act.put, List.getElem_toArray, List.getElem_cons_succ, List.getElem_cons_zero, List.setIfInBounds_toArray, List.set_cons_zero, List.set_cons_succ]
          refine reg_step hR 4 (by kernel_rfl) rfl fun K hK => ?_
          try simp only [Act.put, List.getElem_toArray, List.getElem_cons_succ, List.getElem_cons_zero, List.setIfInBounds_toArray, List.set_cons_zero, List.set_cons_succ]
          rw [if_pos (by rfl)]
          refine wp_alloc_z 40 rfl z40 zero40 ?_
          refine hK.out _ _ trivial ?_
          clear hK K
          have hnHXp : w.heap.size ≠ u3.heap.size := by have := HX.out.lt; omega
          have hnHYp : w.heap.size + 1 ≠ u3.heap.size := by have := HY.out.lt; omega
          have hnHZp : w.heap.size + 1 + 1 ≠ u3.heap.size := by have := HZ.out.lt; omega
          have hnHRp : w.heap.size + 1 + 1 + 1 ≠ u3.heap.size := by have := HR.out.lt; omega
          have hnHqp : q ≠ u3.heap.size := by have := Hq.out.lt; omega
          have Hp := Lib.hid (Bk.new u3 z40 40)
          have HX := Lib.hid (HX.out.old (.cells z40.toArray 40))
          have HY := Lib.hid (HY.out.old (.cells z40.toArray 40))
          have HZ := Lib.hid (HZ.out.old (.cells z40.toArray 40))
          have HR := Lib.hid (HR.out.old (.cells z40.toArray 40))
          have Hq := Lib.hid (Hq.out.old (.cells z40.toArray 40))
          have hlp : w.heap.size ≤ u3.heap.size := HB.out.size
          have HB := Lib.hid (bl_alloc HB.out (.cells z40.toArray 40))
          generalize hg : u3.alloc (.cells z40.toArray 40) = u4 at Hp HX HY HZ HR Hq HB ⊢
          clear hg
          generalize hg : u3.heap.size = p at *
          clear hg
          try simp only [Act.put, List.getElem_toArray, List.getElem_cons_succ, List.getElem_cons_zero, List.setIfInBounds_toArray, List.set_cons_zero, List.set_cons_succ]
          refine reg_step hR 6 (by kernel_rfl) rfl fun K hK => ?_
          try simp only [Act.put, List.getElem_toArray, List.getElem_cons_succ, List.getElem_cons_zero, List.setIfInBounds_toArray, List.set_cons_zero, List.set_cons_succ]
          rw [if_pos (by rfl)]
          refine wp_store_bk 40 _ _ rfl p rfl (cs64 (wd (b % LL))) z40 rfl Hp.out (wd_info _) (wd_zlen _) (cs64_one _) ?_
          refine hK.out _ _ trivial ?_
          clear hK K
          have HX := Lib.hid (HX.out.other (show w.heap.size ≠ p by omega) (cs64 (wd (b % LL))).toArray)
          have HY := Lib.hid (HY.out.other (show w.heap.size + 1 ≠ p by omega) (cs64 (wd (b % LL))).toArray)
          have HZ := Lib.hid (HZ.out.other (show w.heap.size + 1 + 1 ≠ p by omega) (cs64 (wd (b % LL))).toArray)
          have HR := Lib.hid (HR.out.other (show w.heap.size + 1 + 1 + 1 ≠ p by omega) (cs64 (wd (b % LL))).toArray)
          have Hq := Lib.hid (Hq.out.other (show q ≠ p by omega) (cs64 (wd (b % LL))).toArray)
          have Hp := Lib.hid (Hp.out.setRow (cs64 (wd (b % LL))))
          have HB := Lib.hid (bl_setRow HB.out (show w.heap.size ≤ p by omega) (cs64 (wd (b % LL))).toArray)
          generalize hg : u4.setRow p (cs64 (wd (b % LL))).toArray = u5 at HX HY HZ HR Hq Hp HB ⊢
          clear hg
          try simp only [Act.put, List.getElem_toArray, List.getElem_cons_succ, List.getElem_cons_zero, List.setIfInBounds_toArray, List.set_cons_zero, List.set_cons_succ]
          refine reg_step hR 7 (by kernel_rfl) rfl fun K hK => ?_
          try simp only [Act.put, List.getElem_toArray, List.getElem_cons_succ, List.getElem_cons_zero, List.setIfInBounds_toArray, List.set_cons_zero, List.set_cons_succ]
          rw [if_pos (by rfl)]
          refine wp_store_bk 40 _ _ rfl q rfl (cs64 (wd (c % LL))) z40 rfl Hq.out (wd_info _) (wd_zlen _) (cs64_one _) ?_
          refine hK.out _ _ trivial ?_
          clear hK K
          have HX := Lib.hid (HX.out.other (show w.heap.size ≠ q by omega) (cs64 (wd (c % LL))).toArray)
          have HY := Lib.hid (HY.out.other (show w.heap.size + 1 ≠ q by omega) (cs64 (wd (c % LL))).toArray)
          have HZ := Lib.hid (HZ.out.other (show w.heap.size + 1 + 1 ≠ q by omega) (cs64 (wd (c % LL))).toArray)
          have HR := Lib.hid (HR.out.other (show w.heap.size + 1 + 1 + 1 ≠ q by omega) (cs64 (wd (c % LL))).toArray)
          have Hq := Lib.hid (Hq.out.setRow (cs64 (wd (c % LL))))
          have Hp := Lib.hid (Hp.out.other (show p ≠ q by omega) (cs64 (wd (c % LL))).toArray)
          have HB := Lib.hid (bl_setRow HB.out (show w.heap.size ≤ q by omega) (cs64 (wd (c % LL))).toArray)
          generalize hg : u5.setRow q (cs64 (wd (c % LL))).toArray = u6 at HX HY HZ HR Hq Hp HB ⊢
          clear hg
          try simp only [Act.put, List.getElem_toArray, List.getElem_cons_succ, List.getElem_cons_zero, List.setIfInBounds_toArray, List.set_cons_zero, List.set_cons_succ]
          refine reg_done (by kernel_rfl) ?_ _
          exact ⟨rfl, p, q, rfl, by omega, by omega, by omega, by omega, by omega, by omega, by omega, Hp, Hq, HX, HR, HB⟩
        · refine ⟨_, rfl, fun K hK => ?_⟩
          try simp only [Act.put, List.getElem_toArray, List.getElem_cons_succ, List.getElem_cons_zero, List.setIfInBounds_toArray, List.set_cons_zero, List.set_cons_succ]
          rw [if_pos (by rfl)]
          refine wp_alloc_z 40 rfl z40 zero40 ?_
          refine hK.out _ _ trivial ?_
          clear hK K
          have hnHXp : w.heap.size ≠ u2.heap.size := by have := HX.out.lt; omega
          have hnHYp : w.heap.size + 1 ≠ u2.heap.size := by have := HY.out.lt; omega
          have hnHZp : w.heap.size + 1 + 1 ≠ u2.heap.size := by have := HZ.out.lt; omega
          have hnHRp : w.heap.size + 1 + 1 + 1 ≠ u2.heap.size := by have := HR.out.lt; omega
          have hnHqp : q ≠ u2.heap.size := by have := Hq.out.lt; omega
          have Hp := Lib.hid (Bk.new u2 z40 40)
          have HX := Lib.hid (HX.out.old (.cells z40.toArray 40))
          have HY := Lib.hid (HY.out.old (.cells z40.toArray 40))
          have HZ := Lib.hid (HZ.out.old (.cells z40.toArray 40))
          have HR := Lib.hid (HR.out.old (.cells z40.toArray 40))
          have Hq := Lib.hid (Hq.out.old (.cells z40.toArray 40))
          have hlp : w.heap.size ≤ u2.heap.size := HB.out.size
          have HB := Lib.hid (bl_alloc HB.out (.cells z40.toArray 40))
          generalize hg : u2.alloc (.cells z40.toArray 40) = u3 at Hp HX HY HZ HR Hq HB ⊢
          clear hg
          generalize hg : u2.heap.size = p at *
          clear hg
          try simp only [Act.put, List.getElem_toArray, List.getElem_cons_succ, List.getElem_cons_zero, List.setIfInBounds_toArray, List.set_cons_zero, List.set_cons_succ]
          refine reg_step hR 3 (by kernel_rfl) rfl fun K hK => ?_
          try simp only [Act.put, List.getElem_toArray, List.getElem_cons_succ, List.getElem_cons_zero, List.setIfInBounds_toArray, List.set_cons_zero, List.set_cons_succ]
          rw [if_pos (by rfl)]
          go_simp
          refine (rest_blk c hc (w.heap.size + 1 + 1) _ HZ.out).mono ?_; rintro e u4 ⟨rfl, hb⟩
          refine hK.out _ _ trivial ?_
          clear hK K
          have HX := Lib.hid (HX.out.keep hb)
          have HY := Lib.hid (HY.out.keep hb)
          have HZ := Lib.hid (HZ.out.keep hb)
          have HR := Lib.hid (HR.out.keep hb)
          have Hq := Lib.hid (Hq.out.keep hb)
          have Hp := Lib.hid (Hp.out.keep hb)
          have HB := Lib.hid (bl_call HB.out hb)
          clear hb
          try simp only [Act.put, List.getElem_toArray, List.getElem_cons_succ, List.getElem_cons_zero, List.setIfInBounds_toArray, List.set_cons_zero, List.set_cons_succ]
          refine reg_step hR 6 (by kernel_rfl) rfl fun K hK => ?_
          try simp only [Act.put, List.getElem_toArray, List.getElem_cons_succ, List.getElem_cons_zero, List.setIfInBounds_toArray, List.set_cons_zero, List.set_cons_succ]
          rw [if_pos (by rfl)]
          refine wp_store_bk 40 _ _ rfl p rfl (cs64 (wd (b % LL))) z40 rfl Hp.out (wd_info _) (wd_zlen _) (cs64_one _) ?_
          refine hK.out _ _ trivial ?_
          clear hK K
          have HX := Lib.hid (HX.out.other (show w.heap.size ≠ p by omega) (cs64 (wd (b % LL))).toArray)
          have HY := Lib.hid (HY.out.other (show w.heap.size + 1 ≠ p by omega) (cs64 (wd (b % LL))).toArray)
          have HZ := Lib.hid (HZ.out.other (show w.heap.size + 1 + 1 ≠ p by omega) (cs64 (wd (b % LL))).toArray)
          have HR := Lib.hid (HR.out.other (show w.heap.size + 1 + 1 + 1 ≠ p by omega) (cs64 (wd (b % LL))).toArray)
          have Hq := Lib.hid (Hq.out.other (show q ≠ p by omega) (cs64 (wd (b % LL))).toArray)
          have Hp := Lib.hid (Hp.out.setRow (cs64 (wd (b % LL))))
          have HB := Lib.hid (bl_setRow HB.out (show w.heap.size ≤ p by omega) (cs64 (wd (b % LL))).toArray)
          generalize hg : u4.setRow p (cs64 (wd (b % LL))).toArray = u5 at HX HY HZ HR Hq Hp HB ⊢
          clear hg
          try simp only [Act.put, List.getElem_toArray, List.getElem_cons_succ, List.getElem_cons_zero, List.setIfInBounds_toArray, List.set_cons_zero, List.set_cons_succ]
          refine reg_step hR 7 (by kernel_rfl) rfl fun K hK => ?_
          try simp only [Act.put, List.getElem_toArray, List.getElem_cons_succ, List.getElem_cons_zero, List.setIfInBounds_toArray, List.set_cons_zero, List.set_cons_succ]
          rw [if_pos (by rfl)]
          refine wp_store_bk 40 _ _ rfl q rfl (cs64 (wd (c % LL))) z40 rfl Hq.out (wd_info _) (wd_zlen _) (cs64_one _) ?_
          refine hK.out _ _ trivial ?_
          clear hK K
          have HX := Lib.hid (HX.out.other (show w.heap.size ≠ q by omega) (cs64 (wd (c % LL))).toArray)
          have HY := Lib.hid (HY.out.other (show w.heap.size + 1 ≠ q by omega) (cs64 (wd (c % LL))).toArray)
          have HZ := Lib.hid (HZ.out.other (show w.heap.size + 1 + 1 ≠ q by omega) (cs64 (wd (c % LL))).toArray)
          have HR := Lib.hid (HR.out.other (show w.heap.size + 1 + 1 + 1 ≠ q by omega) (cs64 (wd (c % LL))).toArray)
          have Hq := Lib.hid (Hq.out.setRow (cs64 (wd (c % LL))))
          have Hp := Lib.hid (Hp.out.other (show p ≠ q by omega) (cs64 (wd (c % LL))).toArray)
          have HB := Lib.hid (bl_setRow HB.out (show w.heap.size ≤ q by omega) (cs64 (wd (c % LL))).toArray)
          generalize hg : u5.setRow q (cs64 (wd (c % LL))).toArray = u6 at HX HY HZ HR Hq Hp HB ⊢
          clear hg
          try simp only [Act.put, List.getElem_toArray, List.getElem_cons_succ, List.getElem_cons_zero, List.setIfInBounds_toArray, List.set_cons_zero, List.set_cons_succ]
          refine reg_done (by kernel_rfl) ?_ _
          exact ⟨rfl, p, q, rfl, by omega, by omega, by omega, by omega, by omega, by omega, by omega, Hp, Hq, HX, HR, HB⟩
    · refine ⟨_, rfl, fun K hK => ?_⟩
      try simp only [Act.put, List.getElem_toArray, List.getElem_cons_succ, List.getElem_cons_zero, List.setIfInBounds_toArray, List.set_cons_zero, List.set_cons_succ]
      rw [if_pos (by rfl)]
      refine wp_alloc_z 40 rfl z40 zero40 ?_
      refine hK.out _ _ trivial ?_
      clear hK K
      have hnHXp : w.heap.size ≠ u0.heap.size := by have := HX.out.lt; omega
      have hnHYp : w.heap.size + 1 ≠ u0.heap.size := by have := HY.out.lt; omega
      have hnHZp : w.heap.size + 1 + 1 ≠ u0.heap.size := by have := HZ.out.lt; omega
      have hnHRp : w.heap.size + 1 + 1 + 1 ≠ u0.heap.size := by have := HR.out.lt; omega
      have Hp := Lib.hid (Bk.new u0 z40 40)
      have HX := Lib.hid (HX.out.old (.cells z40.toArray 40))
      have HY := Lib.hid (HY.out.old (.cells z40.toArray 40))
      have HZ := Lib.hid (HZ.out.old (.cells z40.toArray 40))
      have HR := Lib.hid (HR.out.old (.cells z40.toArray 40))
      have hlp : w.heap.size ≤ u0.heap.size := HB.out.size
      have HB := Lib.hid (bl_alloc HB.out (.cells z40.toArray 40))
      generalize hg : u0.alloc (.cells z40.toArray 40) = u1 at Hp HX HY HZ HR HB ⊢
      clear hg
      generalize hg : u0.heap.size = p at *
      clear hg
      try simp only [Act.put, List.getElem_toArray, List.getElem_cons_succ, List.getElem_cons_zero, List.setIfInBounds_toArray, List.set_cons_zero, List.set_cons_succ]
      refine reg_fork (rs := [1, 5]) hR (by kernel_rfl) (by simp) ?_
      intro i hi; simp only [List.mem_cons, List.not_mem_nil, or_false] at hi
      rcases hi with rfl | rfl
      · refine ⟨_, rfl, fun K hK => ?_⟩
        try simp only [Act.put, List.getElem_toArray, List.getElem_cons_succ, List.getElem_cons_zero, List.setIfInBounds_toArray, List.set_cons_zero, List.set_cons_succ]
        rw [if_pos (by rfl)]
        go_simp
        refine (rest_blk b hb (w.heap.size + 1) _ HY.out).mono ?_; rintro e u2 ⟨rfl, hb⟩
        refine hK.out _ _ trivial ?_
        clear hK K
        have HX := Lib.hid (HX.out.keep hb)
        have HY := Lib.hid (HY.out.keep hb)
        have HZ := Lib.hid (HZ.out.keep hb)
        have HR := Lib.hid (HR.out.keep hb)
        have Hp := Lib.hid (Hp.out.keep hb)
        have HB := Lib.hid (bl_call HB.out hb)
        clear hb
        try simp only [Act.put, List.getElem_toArray, List.getElem_cons_succ, List.getElem_cons_zero, List.setIfInBounds_toArray, List.set_cons_zero, List.set_cons_succ]
        refine reg_fork (rs := [3, 5]) hR (by kernel_rfl) (by simp) ?_
        intro i hi; simp only [List.mem_cons, List.not_mem_nil, or_false] at hi
        rcases hi with rfl | rfl
        · refine ⟨_, rfl, fun K hK => ?_⟩
          try simp only [Act.put, List.getElem_toArray, List.getElem_cons_succ, List.getElem_cons_zero, List.setIfInBounds_toArray, List.set_cons_zero, List.set_cons_succ]
          rw [if_pos (by rfl)]
          go_simp
          refine (rest_blk c hc (w.heap.size + 1 + 1) _ HZ.out).mono ?_; rintro e u3 ⟨rfl, hb⟩
          refine hK.out _ _ trivial ?_
          clear hK K
          have HX := Lib.hid (HX.out.keep hb)
          have HY := Lib.hid (HY.out.keep hb)
          have HZ := Lib.hid (HZ.out.keep hb)
          have HR := Lib.hid (HR.out.keep hb)
          have Hp := Lib.hid (Hp.out.keep hb)
          have HB := Lib.hid (bl_call HB.out hb)
          clear hb
          try simp only [Act.put, List.getElem_toArray, List.getElem_cons_succ, List.getElem_cons_zero, List.setIfInBounds_toArray, List.set_cons_zero, List.set_cons_succ]
          refine reg_step hR 5 (by kernel_rfl) rfl fun K hK => ?_
          try simp only [Act.put, List.getElem_toArray, List.getElem_cons_succ, List.getElem_cons_zero, List.setIfInBounds_toArray, List.set_cons_zero, List.set_cons_succ]
          rw [if_pos (by rfl)]
          refine wp_alloc_z 40 rfl z40 zero40 ?_
          refine hK.out _ _ trivial ?_
          clear hK K
          have hnHXq : w.heap.size ≠ u3.heap.size := by have := HX.out.lt; omega
          have hnHYq : w.heap.size + 1 ≠ u3.heap.size := by have := HY.out.lt; omega
          have hnHZq : w.heap.size + 1 + 1 ≠ u3.heap.size := by have := HZ.out.lt; omega
          have hnHRq : w.heap.size + 1 + 1 + 1 ≠ u3.heap.size := by have := HR.out.lt; omega
          have hnHpq : p ≠ u3.heap.size := by have := Hp.out.lt; omega
          have Hq := Lib.hid (Bk.new u3 z40 40)
          have HX := Lib.hid (HX.out.old (.cells z40.toArray 40))
          have HY := Lib.hid (HY.out.old (.cells z40.toArray 40))
          have HZ := Lib.hid (HZ.out.old (.cells z40.toArray 40))
          have HR := Lib.hid (HR.out.old (.cells z40.toArray 40))
          have Hp := Lib.hid (Hp.out.old (.cells z40.toArray 40))
          have hlq : w.heap.size ≤ u3.heap.size := HB.out.size
          have HB := Lib.hid (bl_alloc HB.out (.cells z40.toArray 40))
          generalize hg : u3.alloc (.cells z40.toArray 40) = u4 at Hq HX HY HZ HR Hp HB ⊢
          clear hg
          generalize hg : u3.heap.size = q at *
          clear hg
          try simp only [Act.put, List.getElem_toArray, List.getElem_cons_succ, List.getElem_cons_zero, List.setIfInBounds_toArray, List.set_cons_zero, List.set_cons_succ]
          refine reg_step hR 6 (by kernel_rfl) rfl fun K hK => ?_
          try simp only [Act.put, List.getElem_toArray, List.getElem_cons_succ, List.getElem_cons_zero, List.setIfInBounds_toArray, List.set_cons_zero, List.set_cons_succ]
          rw [if_pos (by rfl)]
          refine wp_store_bk 40 _ _ rfl p rfl (cs64 (wd (b % LL))) z40 rfl Hp.out (wd_info _) (wd_zlen _) (cs64_one _) ?_
          refine hK.out _ _ trivial ?_
          clear hK K
          have HX := Lib.hid (HX.out.other (show w.heap.size ≠ p by omega) (cs64 (wd (b % LL))).toArray)
          have HY := Lib.hid (HY.out.other (show w.heap.size + 1 ≠ p by omega) (cs64 (wd (b % LL))).toArray)
          have HZ := Lib.hid (HZ.out.other (show w.heap.size + 1 + 1 ≠ p by omega) (cs64 (wd (b % LL))).toArray)
          have HR := Lib.hid (HR.out.other (show w.heap.size + 1 + 1 + 1 ≠ p by omega) (cs64 (wd (b % LL))).toArray)
          have Hp := Lib.hid (Hp.out.setRow (cs64 (wd (b % LL))))
          have Hq := Lib.hid (Hq.out.other (show q ≠ p by omega) (cs64 (wd (b % LL))).toArray)
          have HB := Lib.hid (bl_setRow HB.out (show w.heap.size ≤ p by omega) (cs64 (wd (b % LL))).toArray)
          generalize hg : u4.setRow p (cs64 (wd (b % LL))).toArray = u5 at HX HY HZ HR Hp Hq HB ⊢
          clear hg
          try simp only [Act.put, List.getElem_toArray, List.getElem_cons_succ, List.getElem_cons_zero, List.setIfInBounds_toArray, List.set_cons_zero, List.set_cons_succ]
          refine reg_step hR 7 (by kernel_rfl) rfl fun K hK => ?_
          try simp only [Act.put, List.getElem_toArray, List.getElem_cons_succ, List.getElem_cons_zero, List.setIfInBounds_toArray, List.set_cons_zero, List.set_cons_succ]
          rw [if_pos (by rfl)]
          refine wp_store_bk 40 _ _ rfl q rfl (cs64 (wd (c % LL))) z40 rfl Hq.out (wd_info _) (wd_zlen _) (cs64_one _) ?_
          refine hK.out _ _ trivial ?_
          clear hK K
          have HX := Lib.hid (HX.out.other (show w.heap.size ≠ q by omega) (cs64 (wd (c % LL))).toArray)
          have HY := Lib.hid (HY.out.other (show w.heap.size + 1 ≠ q by omega) (cs64 (wd (c % LL))).toArray)
          have HZ := Lib.hid (HZ.out.other (show w.heap.size + 1 + 1 ≠ q by omega) (cs64 (wd (c % LL))).toArray)
          have HR := Lib.hid (HR.out.other (show w.heap.size + 1 + 1 + 1 ≠ q by omega) (cs64 (wd (c % LL))).toArray)
          have Hp := Lib.hid (Hp.out.other (show p ≠ q by omega) (cs64 (wd (c % LL))).toArray)
          have Hq := Lib.hid (Hq.out.setRow (cs64 (wd (c % LL))))
          have HB := Lib.hid (bl_setRow HB.out (show w.heap.size ≤ q by omega) (cs64 (wd (c % LL))).toArray)
          generalize hg : u5.setRow q (cs64 (wd (c % LL))).toArray = u6 at HX HY HZ HR Hp Hq HB ⊢
          clear hg
          try simp only [Act.put, List.getElem_toArray, List.getElem_cons_succ, List.getElem_cons_zero, List.setIfInBounds_toArray, List.set_cons_zero, List.set_cons_succ]
          refine reg_done (by kernel_rfl) ?_ _
          exact ⟨rfl, p, q, rfl, by omega, by omega, by omega, by omega, by omega, by omega, by omega, Hp, Hq, HX, HR, HB⟩
        · refine ⟨_, rfl, fun K hK => ?_⟩
          try simp only [Act.put, List.getElem_toArray, List.getElem_cons_succ, List.getElem_cons_zero, List.setIfInBounds_toArray, List.set_cons_zero, List.set_cons_succ]
          rw [if_pos (by rfl)]
          refine wp_alloc_z 40 rfl z40 zero40 ?_
          refine hK.out _ _ trivial ?_
          clear hK K
          have hnHXq : w.heap.size ≠ u2.heap.size := by have := HX.out.lt; omega
          have hnHYq : w.heap.size + 1 ≠ u2.heap.size := by have := HY.out.lt; omega
          have hnHZq : w.heap.size + 1 + 1 ≠ u2.heap.size := by have := HZ.out.lt; omega
          have hnHRq : w.heap.size + 1 + 1 + 1 ≠ u2.heap.size := by have := HR.out.lt; omega
          have hnHpq : p ≠ u2.heap.size := by have := Hp.out.lt; omega
          have Hq := Lib.hid (Bk.new u2 z40 40)
          have HX := Lib.hid (HX.out.old (.cells z40.toArray 40))
          have HY := Lib.hid (HY.out.old (.cells z40.toArray 40))
          have HZ := Lib.hid (HZ.out.old (.cells z40.toArray 40))
          have HR := Lib.hid (HR.out.old (.cells z40.toArray 40))
          have Hp := Lib.hid (Hp.out.old (.cells z40.toArray 40))
          have hlq : w.heap.size ≤ u2.heap.size := HB.out.size
          have HB := Lib.hid (bl_alloc HB.out (.cells z40.toArray 40))
          generalize hg : u2.alloc (.cells z40.toArray 40) = u3 at Hq HX HY HZ HR Hp HB ⊢
          clear hg
          generalize hg : u2.heap.size = q at *
          clear hg
          try simp only [Act.put, List.getElem_toArray, List.getElem_cons_succ, List.getElem_cons_zero, List.setIfInBounds_toArray, List.set_cons_zero, List.set_cons_succ]
          refine reg_step hR 3 (by kernel_rfl) rfl fun K hK => ?_
          try simp only [Act.put, List.getElem_toArray, List.getElem_cons_succ, List.getElem_cons_zero, List.setIfInBounds_toArray, List.set_cons_zero, List.set_cons_succ]
          rw [if_pos (by rfl)]
          go_simp
          refine (rest_blk c hc (w.heap.size + 1 + 1) _ HZ.out).mono ?_; rintro e u4 ⟨rfl, hb⟩
          refine hK.out _ _ trivial ?_
          clear hK K
          have HX := Lib.hid (HX.out.keep hb)
          have HY := Lib.hid (HY.out.keep hb)
          have HZ := Lib.hid (HZ.out.keep hb)
          have HR := Lib.hid (HR.out.keep hb)
          have Hp := Lib.hid (Hp.out.keep hb)
          have Hq := Lib.hid (Hq.out.keep hb)
          have HB := Lib.hid (bl_call HB.out hb)
          clear hb
          try simp only [Act.put, List.getElem_toArray, List.getElem_cons_succ, List.getElem_cons_zero, List.setIfInBounds_toArray, List.set_cons_zero, List.set_cons_succ]
          refine reg_step hR 6 (by kernel_rfl) rfl fun K hK => ?_
          try simp only [Act.put, List.getElem_toArray, List.getElem_cons_succ, List.getElem_cons_zero, List.setIfInBounds_toArray, List.set_cons_zero, List.set_cons_succ]
          rw [if_pos (by rfl)]
          refine wp_store_bk 40 _ _ rfl p rfl (cs64 (wd (b % LL))) z40 rfl Hp.out (wd_info _) (wd_zlen _) (cs64_one _) ?_
          refine hK.out _ _ trivial ?_
          clear hK K
          have HX := Lib.hid (HX.out.other (show w.heap.size ≠ p by omega) (cs64 (wd (b % LL))).toArray)
          have HY := Lib.hid (HY.out.other (show w.heap.size + 1 ≠ p by omega) (cs64 (wd (b % LL))).toArray)
          have HZ := Lib.hid (HZ.out.other (show w.heap.size + 1 + 1 ≠ p by omega) (cs64 (wd (b % LL))).toArray)
          have HR := Lib.hid (HR.out.other (show w.heap.size + 1 + 1 + 1 ≠ p by omega) (cs64 (wd (b % LL))).toArray)
          have Hp := Lib.hid (Hp.out.setRow (cs64 (wd (b % LL))))
          have Hq := Lib.hid (Hq.out.other (show q ≠ p by omega) (cs64 (wd (b % LL))).toArray)
          have HB := Lib.hid (bl_setRow HB.out (show w.heap.size ≤ p by omega) (cs64 (wd (b % LL))).toArray)
          generalize hg : u4.setRow p (cs64 (wd (b % LL))).toArray = u5 at HX HY HZ HR Hp Hq HB ⊢
          clear hg
          try simp only [Act.put, List.getElem_toArray, List.getElem_cons_succ, List.getElem_cons_zero, List.setIfInBounds_toArray, List.set_cons_zero, List.set_cons_succ]
          refine reg_step hR 7 (by kernel_rfl) rfl fun K hK => ?_
          try simp only [Act.put, List.getElem_toArray, List.getElem_cons_succ, List.getElem_cons_zero, List.setIfInBounds_toArray, List.set_cons_zero, List.set_cons_succ]
          rw [if_pos (by rfl)]
          refine wp_store_bk 40 _ _ rfl q rfl (cs64 (wd (c % LL))) z40 rfl Hq.out (wd_info _) (wd_zlen _) (cs64_one _) ?_
          refine hK.out _ _ trivial ?_
          clear hK K
          have HX := Lib.hid (HX.out.other (show w.heap.size ≠ q by omega) (cs64 (wd (c % LL))).toArray)
          have HY := Lib.hid (HY.out.other (show w.heap.size + 1 ≠ q by omega) (cs64 (wd (c % LL))).toArray)
          have HZ := Lib.hid (HZ.out.other (show w.heap.size + 1 + 1 ≠ q by omega) (cs64 (wd (c % LL))).toArray)
          have HR := Lib.hid (HR.out.other (show w.heap.size + 1 + 1 + 1 ≠ q by omega) (cs64 (wd (c % LL))).toArray)
          have Hp := Lib.hid (Hp.out.other (show p ≠ q by omega) (cs64 (wd (c % LL))).toArray)
          have Hq := Lib.hid (Hq.out.setRow (cs64 (wd (c % LL))))
          have HB := Lib.hid (bl_setRow HB.out (show w.heap.size ≤ q by omega) (cs64 (wd (c % LL))).toArray)
          generalize hg : u5.setRow q (cs64 (wd (c % LL))).toArray = u6 at HX HY HZ HR Hp Hq HB ⊢
          clear hg
          try simp only [Act.put, List.getElem_toArray, List.getElem_cons_succ, List.getElem_cons_zero, List.setIfInBounds_toArray, List.set_cons_zero, List.set_cons_succ]
          refine reg_done (by kernel_rfl) ?_ _
          exact ⟨rfl, p, q, rfl, by omega, by omega, by omega, by omega, by omega, by omega, by omega, Hp, Hq, HX, HR, HB⟩
      · refine ⟨_, rfl, fun K hK => ?_⟩
        try simp only [Act.put, List.getElem_toArray, List.getElem_cons_succ, List.getElem_cons_zero, List.setIfInBounds_toArray, List.set_cons_zero, List.set_cons_succ]
        rw [if_pos (by rfl)]
        refine wp_alloc_z 40 rfl z40 zero40 ?_
        refine hK.out _ _ trivial ?_
        clear hK K
        have hnHXq : w.heap.size ≠ u1.heap.size := by have := HX.out.lt; omega
        have hnHYq : w.heap.size + 1 ≠ u1.heap.size := by have := HY.out.lt; omega
        have hnHZq : w.heap.size + 1 + 1 ≠ u1.heap.size := by have := HZ.out.lt; omega
        have hnHRq : w.heap.size + 1 + 1 + 1 ≠ u1.heap.size := by have := HR.out.lt; omega
        have hnHpq : p ≠ u1.heap.size := by have := Hp.out.lt; omega
        have Hq := Lib.hid (Bk.new u1 z40 40)
        have HX := Lib.hid (HX.out.old (.cells z40.toArray 40))
        have HY := Lib.hid (HY.out.old (.cells z40.toArray 40))
        have HZ := Lib.hid (HZ.out.old (.cells z40.toArray 40))
        have HR := Lib.hid (HR.out.old (.cells z40.toArray 40))
        have Hp := Lib.hid (Hp.out.old (.cells z40.toArray 40))
        have hlq : w.heap.size ≤ u1.heap.size := HB.out.size
        have HB := Lib.hid (bl_alloc HB.out (.cells z40.toArray 40))
        generalize hg : u1.alloc (.cells z40.toArray 40) = u2 at Hq HX HY HZ HR Hp HB ⊢
        clear hg
        generalize hg : u1.heap.size = q at *
        clear hg
        try simp only [Act.put, List.getElem_toArray, List.getElem_cons_succ, List.getElem_cons_zero, List.setIfInBounds_toArray, List.set_cons_zero, List.set_cons_succ]
        refine reg_step hR 1 (by kernel_rfl) rfl fun K hK => ?_
        try simp only [Act.put, List.getElem_toArray, List.getElem_cons_succ, List.getElem_cons_zero, List.setIfInBounds_toArray, List.set_cons_zero, List.set_cons_succ]
        rw [if_pos (by rfl)]
        go_simp
        refine (rest_blk b hb (w.heap.size + 1) _ HY.out).mono ?_; rintro e u3 ⟨rfl, hb⟩
        refine hK.out _ _ trivial ?_
        clear hK K
        have HX := Lib.hid (HX.out.keep hb)
        have HY := Lib.hid (HY.out.keep hb)
        have HZ := Lib.hid (HZ.out.keep hb)
        have HR := Lib.hid (HR.out.keep hb)
        have Hp := Lib.hid (Hp.out.keep hb)
        have Hq := Lib.hid (Hq.out.keep hb)
        have HB := Lib.hid (bl_call HB.out hb)
        clear hb
        try simp only [Act.put, List.getElem_toArray, List.getElem_cons_succ, List.getElem_cons_zero, List.setIfInBounds_toArray, List.set_cons_zero, List.set_cons_succ]
        refine reg_step hR 3 (by kernel_rfl) rfl fun K hK => ?_
        try simp only [Act.put, List.getElem_toArray, List.getElem_cons_succ, List.getElem_cons_zero, List.setIfInBounds_toArray, List.set_cons_zero, List.set_cons_succ]
        rw [if_pos (by rfl)]
        go_simp
        refine (rest_blk c hc (w.heap.size + 1 + 1) _ HZ.out).mono ?_; rintro e u4 ⟨rfl, hb⟩
        refine hK.out _ _ trivial ?_
        clear hK K
        have HX := Lib.hid (HX.out.keep hb)
        have HY := Lib.hid (HY.out.keep hb)
        have HZ := Lib.hid (HZ.out.keep hb)
        have HR := Lib.hid (HR.out.keep hb)
        have Hp := Lib.hid (Hp.out.keep hb)
        have Hq := Lib.hid (Hq.out.keep hb)
        have HB := Lib.hid (bl_call HB.out hb)
        clear hb
        try simp only [Act.put, List.getElem_toArray, List.getElem_cons_succ, List.getElem_cons_zero, List.setIfInBounds_toArray, List.set_cons_zero, List.set_cons_succ]
        refine reg_step hR 6 (by kernel_rfl) rfl fun K hK => ?_
        try simp only [Act.put, List.getElem_toArray, List.getElem_cons_succ, List.getElem_cons_zero, List.setIfInBounds_toArray, List.set_cons_zero, List.set_cons_succ]
        rw [if_pos (by rfl)]
        refine wp_store_bk 40 _ _ rfl p rfl (cs64 (wd (b % LL))) z40 rfl Hp.out (wd_info _) (wd_zlen _) (cs64_one _) ?_
        refine hK.out _ _ trivial ?_
        clear hK K
        have HX := Lib.hid (HX.out.other (show w.heap.size ≠ p by omega) (cs64 (wd (b % LL))).toArray)
        have HY := Lib.hid (HY.out.other (show w.heap.size + 1 ≠ p by omega) (cs64 (wd (b % LL))).toArray)
        have HZ := Lib.hid (HZ.out.other (show w.heap.size + 1 + 1 ≠ p by omega) (cs64 (wd (b % LL))).toArray)
        have HR := Lib.hid (HR.out.other (show w.heap.size + 1 + 1 + 1 ≠ p by omega) (cs64 (wd (b % LL))).toArray)
        have Hp := Lib.hid (Hp.out.setRow (cs64 (wd (b % LL))))
        have Hq := Lib.hid (Hq.out.other (show q ≠ p by omega) (cs64 (wd (b % LL))).toArray)
        have HB := Lib.hid (bl_setRow HB.out (show w.heap.size ≤ p by omega) (cs64 (wd (b % LL))).toArray)
        generalize hg : u4.setRow p (cs64 (wd (b % LL))).toArray = u5 at HX HY HZ HR Hp Hq HB ⊢
        clear hg
        try simp only [Act.put, List.getElem_toArray, List.getElem_cons_succ, List.getElem_cons_zero, List.setIfInBounds_toArray, List.set_cons_zero, List.set_cons_succ]
        refine reg_step hR 7 (by kernel_rfl) rfl fun K hK => ?_
        try simp only [Act.put, List.getElem_toArray, List.getElem_cons_succ, List.getElem_cons_zero, List.setIfInBounds_toArray, List.set_cons_zero, List.set_cons_succ]
        rw [if_pos (by rfl)]
        refine wp_store_bk 40 _ _ rfl q rfl (cs64 (wd (c % LL))) z40 rfl Hq.out (wd_info _) (wd_zlen _) (cs64_one _) ?_
        refine hK.out _ _ trivial ?_
        clear hK K
        have HX := Lib.hid (HX.out.other (show w.heap.size ≠ q by omega) (cs64 (wd (c % LL))).toArray)
        have HY := Lib.hid (HY.out.other (show w.heap.size + 1 ≠ q by omega) (cs64 (wd (c % LL))).toArray)
        have HZ := Lib.hid (HZ.out.other (show w.heap.size + 1 + 1 ≠ q by omega) (cs64 (wd (c % LL))).toArray)
        have HR := Lib.hid (HR.out.other (show w.heap.size + 1 + 1 + 1 ≠ q by omega) (cs64 (wd (c % LL))).toArray)
        have Hp := Lib.hid (Hp.out.other (show p ≠ q by omega) (cs64 (wd (c % LL))).toArray)
        have Hq := Lib.hid (Hq.out.setRow (cs64 (wd (c % LL))))
        have HB := Lib.hid (bl_setRow HB.out (show w.heap.size ≤ q by omega) (cs64 (wd (c % LL))).toArray)
        generalize hg : u5.setRow q (cs64 (wd (c % LL))).toArray = u6 at HX HY HZ HR Hp Hq HB ⊢
        clear hg
        try simp only [Act.put, List.getElem_toArray, List.getElem_cons_succ, List.getElem_cons_zero, List.setIfInBounds_toArray, List.set_cons_zero, List.set_cons_succ]
        refine reg_done (by kernel_rfl) ?_ _
        exact ⟨rfl, p, q, rfl, by omega, by omega, by omega, by omega, by omega, by omega, by omega, Hp, Hq, HX, HR, HB⟩
    · refine ⟨_, rfl, fun K hK => ?_⟩
      try simp only [Act.put, List.getElem_toArray, List.getElem_cons_succ, List.getElem_cons_zero, List.setIfInBounds_toArray, List.set_cons_zero, List.set_cons_succ]
      rw [if_pos (by rfl)]
      refine wp_alloc_z 40 rfl z40 zero40 ?_
      refine hK.out _ _ trivial ?_
      clear hK K
      have hnHXq : w.heap.size ≠ u0.heap.size := by have := HX.out.lt; omega
      have hnHYq : w.heap.size + 1 ≠ u0.heap.size := by have := HY.out.lt; omega
      have hnHZq : w.heap.size + 1 + 1 ≠ u0.heap.size := by have := HZ.out.lt; omega
      have hnHRq : w.heap.size + 1 + 1 + 1 ≠ u0.heap.size := by have := HR.out.lt; omega
      have Hq := Lib.hid (Bk.new u0 z40 40)
      have HX := Lib.hid (HX.out.old (.cells z40.toArray 40))
      have HY := Lib.hid (HY.out.old (.cells z40.toArray 40))
      have HZ := Lib.hid (HZ.out.old (.cells z40.toArray 40))
      have HR := Lib.hid (HR.out.old (.cells z40.toArray 40))
      have hlq : w.heap.size ≤ u0.heap.size := HB.out.size
      have HB := Lib.hid (bl_alloc HB.out (.cells z40.toArray 40))
      generalize hg : u0.alloc (.cells z40.toArray 40) = u1 at Hq HX HY HZ HR HB ⊢
      clear hg
      generalize hg : u0.heap.size = q at *
      clear hg
      try simp only [Act.put, List.getElem_toArray, List.getElem_cons_succ, List.getElem_cons_zero, List.setIfInBounds_toArray, List.set_cons_zero, List.set_cons_succ]
      refine reg_fork (rs := [1, 4]) hR (by kernel_rfl) (by simp) ?_
      intro i hi; simp only [List.mem_cons, List.not_mem_nil, or_false] at hi
      rcases hi with rfl | rfl
      · refine ⟨_, rfl, fun K hK => ?_⟩
        try simp only [Act.put, List.getElem_toArray, List.getElem_cons_succ, List.getElem_cons_zero, List.setIfInBounds_toArray, List.set_cons_zero, List.set_cons_succ]
        rw [if_pos (by rfl)]
        go_simp
        refine (rest_blk b hb (w.heap.size + 1) _ HY.out).mono ?_; rintro e u2 ⟨rfl, hb⟩
        refine hK.out _ _ trivial ?_
        clear hK K
        have HX := Lib.hid (HX.out.keep hb)
        have HY := Lib.hid (HY.out.keep hb)
        have HZ := Lib.hid (HZ.out.keep hb)
        have HR := Lib.hid (HR.out.keep hb)
        have Hq := Lib.hid (Hq.out.keep hb)
        have HB := Lib.hid (bl_call HB.out hb)
        clear hb
        try simp only [Act.put, List.getElem_toArray, List.getElem_cons_succ, List.getElem_cons_zero, List.setIfInBounds_toArray, List.set_cons_zero, List.set_cons_succ]
        refine reg_fork (rs := [3, 4]) hR (by kernel_rfl) (by simp) ?_
        intro i hi; simp only [List.mem_cons, List.not_mem_nil, or_false] at hi
        rcases hi with rfl | rfl
        · refine ⟨_, rfl, fun K hK => ?_⟩
          try simp only [Act.put, List.getElem_toArray, List.getElem_cons_succ, List.getElem_cons_zero, List.setIfInBounds_toArray, List.set_cons_zero, List.set_cons_succ]
          rw [if_pos (by rfl)]
          go_simp
          refine (rest_blk c hc (w.heap.size + 1 + 1) _ HZ.out).mono ?_; rintro e u3 ⟨rfl, hb⟩
          refine hK.out _ _ trivial ?_
          clear hK K
          have HX := Lib.hid (HX.out.keep hb)
          have HY := Lib.hid (HY.out.keep hb)
          have HZ := Lib.hid (HZ.out.keep hb)
          have HR := Lib.hid (HR.out.keep hb)
          have Hq := Lib.hid (Hq.out.keep hb)
          have HB := Lib.hid (bl_call HB.out hb)
          clear hb
          try simp only [Act.put, List.getElem_toArray, List.getElem_cons_succ, List.getElem_cons_zero, List.setIfInBounds_toArray, List.set_cons_zero, List.set_cons_succ]
          refine reg_step hR 4 (by kernel_rfl) rfl fun K hK => ?_
          try simp only [Act.put, List.getElem_toArray, List.getElem_cons_succ, List.getElem_cons_zero, List.setIfInBounds_toArray, List.set_cons_zero, List.set_cons_succ]
          rw [if_pos (by rfl)]
          refine wp_alloc_z 40 rfl z40 zero40 ?_
          refine hK.out _ _ trivial ?_
          clear hK K
          have hnHXp : w.heap.size ≠ u3.heap.size := by have := HX.out.lt; omega
          have hnHYp : w.heap.size + 1 ≠ u3.heap.size := by have := HY.out.lt; omega
          have hnHZp : w.heap.size + 1 + 1 ≠ u3.heap.size := by have := HZ.out.lt; omega
          have hnHRp : w.heap.size + 1 + 1 + 1 ≠ u3.heap.size := by have := HR.out.lt; omega
          have hnHqp : q ≠ u3.heap.size := by have := Hq.out.lt; omega
          have Hp := Lib.hid (Bk.new u3 z40 40)
          have HX := Lib.hid (HX.out.old (.cells z40.toArray 40))
          have HY := Lib.hid (HY.out.old (.cells z40.toArray 40))
          have HZ := Lib.hid (HZ.out.old (.cells z40.toArray 40))
          have HR := Lib.hid (HR.out.old (.cells z40.toArray 40))
          have Hq := Lib.hid (Hq.out.old (.cells z40.toArray 40))
          have hlp : w.heap.size ≤ u3.heap.size := HB.out.size
          have HB := Lib.hid (bl_alloc HB.out (.cells z40.toArray 40))
          generalize hg : u3.alloc (.cells z40.toArray 40) = u4 at Hp HX HY HZ HR Hq HB ⊢
          clear hg
          generalize hg : u3.heap.size = p at *
          clear hg
          try simp only [Act.put, List.getElem_toArray, List.getElem_cons_succ, List.getElem_cons_zero, List.setIfInBounds_toArray, List.set_cons_zero, List.set_cons_succ]
          refine reg_step hR 6 (by kernel_rfl) rfl fun K hK => ?_
          try simp only [Act.put, List.getElem_toArray, List.getElem_cons_succ, List.getElem_cons_zero, List.setIfInBounds_toArray, List.set_cons_zero, List.set_cons_succ]
          rw [if_pos (by rfl)]
          refine wp_store_bk 40 _ _ rfl p rfl (cs64 (wd (b % LL))) z40 rfl Hp.out (wd_info _) (wd_zlen _) (cs64_one _) ?_
          refine hK.out _ _ trivial ?_
          clear hK K
          have HX := Lib.hid (HX.out.other (show w.heap.size ≠ p by omega) (cs64 (wd (b % LL))).toArray)
          have HY := Lib.hid (HY.out.other (show w.heap.size + 1 ≠ p by omega) (cs64 (wd (b % LL))).toArray)
          have HZ := Lib.hid (HZ.out.other (show w.heap.size + 1 + 1 ≠ p by omega) (cs64 (wd (b % LL))).toArray)
          have HR := Lib.hid (HR.out.other (show w.heap.size + 1 + 1 + 1 ≠ p by omega) (cs64 (wd (b % LL))).toArray)
          have Hq := Lib.hid (Hq.out.other (show q ≠ p by omega) (cs64 (wd (b % LL))).toArray)
          have Hp := Lib.hid (Hp.out.setRow (cs64 (wd (b % LL))))
          have HB := Lib.hid (bl_setRow HB.out (show w.heap.size ≤ p by omega) (cs64 (wd (b % LL))).toArray)
          generalize hg : u4.setRow p (cs64 (wd (b % LL))).toArray = u5 at HX HY HZ HR Hq Hp HB ⊢
          clear hg
          try simp only [Act.put, List.getElem_toArray, List.getElem_cons_succ, List.getElem_cons_zero, List.setIfInBounds_toArray, List.set_cons_zero, List.set_cons_succ]
          refine reg_step hR 7 (by kernel_rfl) rfl fun K hK => ?_
          try simp only [Act.put, List.getElem_toArray, List.getElem_cons_succ, List.getElem_cons_zero, List.setIfInBounds_toArray, List.set_cons_zero, List.set_cons_succ]
          rw [if_pos (by rfl)]
          refine wp_store_bk 40 _ _ rfl q rfl (cs64 (wd (c % LL))) z40 rfl Hq.out (wd_info _) (wd_zlen _) (cs64_one _) ?_
          refine hK.out _ _ trivial ?_
          clear hK K
          have HX := Lib.hid (HX.out.other (show w.heap.size ≠ q by omega) (cs64 (wd (c % LL))).toArray)
          have HY := Lib.hid (HY.out.other (show w.heap.size + 1 ≠ q by omega) (cs64 (wd (c % LL))).toArray)
          have HZ := Lib.hid (HZ.out.other (show w.heap.size + 1 + 1 ≠ q by omega) (cs64 (wd (c % LL))).toArray)
          have HR := Lib.hid (HR.out.other (show w.heap.size + 1 + 1 + 1 ≠ q by omega) (cs64 (wd (c % LL))).toArray)
          have Hq := Lib.hid (Hq.out.setRow (cs64 (wd (c % LL))))
          have Hp := Lib.hid (Hp.out.other (show p ≠ q by omega) (cs64 (wd (c % LL))).toArray)
          have HB := Lib.hid (bl_setRow HB.out (show w.heap.size ≤ q by omega) (cs64 (wd (c % LL))).toArray)
          generalize hg : u5.setRow q (cs64 (wd (c % LL))).toArray = u6 at HX HY HZ HR Hq Hp HB ⊢
          clear hg
          try simp only [Act.put, List.getElem_toArray, List.getElem_cons_succ, List.getElem_cons_zero, List.setIfInBounds_toArray, List.set_cons_zero, List.set_cons_succ]
          refine reg_done (by kernel_rfl) ?_ _
          exact ⟨rfl, p, q, rfl, by omega, by omega, by omega, by omega, by omega, by omega, by omega, Hp, Hq, HX, HR, HB⟩
        · refine ⟨_, rfl, fun K hK => ?_⟩
          try simp only [Act.put, List.getElem_toArray, List.getElem_cons_succ, List.getElem_cons_zero, List.setIfInBounds_toArray, List.set_cons_zero, List.set_cons_succ]
          rw [if_pos (by rfl)]
          refine wp_alloc_z 40 rfl z40 zero40 ?_
          refine hK.out _ _ trivial ?_
          clear hK K
          have hnHXp : w.heap.size ≠ u2.heap.size := by have := HX.out.lt; omega
          have hnHYp : w.heap.size + 1 ≠ u2.heap.size := by have := HY.out.lt; omega
          have hnHZp : w.heap.size + 1 + 1 ≠ u2.heap.size := by have := HZ.out.lt; omega
          have hnHRp : w.heap.size + 1 + 1 + 1 ≠ u2.heap.size := by have := HR.out.lt; omega
          have hnHqp : q ≠ u2.heap.size := by have := Hq.out.lt; omega
          have Hp := Lib.hid (Bk.new u2 z40 40)
          have HX := Lib.hid (HX.out.old (.cells z40.toArray 40))
          have HY := Lib.hid (HY.out.old (.cells z40.toArray 40))
          have HZ := Lib.hid (HZ.out.old (.cells z40.toArray 40))
          have HR := Lib.hid (HR.out.old (.cells z40.toArray 40))
          have Hq := Lib.hid (Hq.out.old (.cells z40.toArray 40))
          have hlp : w.heap.size ≤ u2.heap.size := HB.out.size
          have HB := Lib.hid (bl_alloc HB.out (.cells z40.toArray 40))
          generalize hg : u2.alloc (.cells z40.toArray 40) = u3 at Hp HX HY HZ HR Hq HB ⊢
          clear hg
          generalize hg : u2.heap.size = p at *
          clear hg
          try simp only [Act.put, List.getElem_toArray, List.getElem_cons_succ, List.getElem_cons_zero, List.setIfInBounds_toArray, List.set_cons_zero, List.set_cons_succ]
          refine reg_step hR 3 (by kernel_rfl) rfl fun K hK => ?_
          try simp only [Act.put, List.getElem_toArray, List.getElem_cons_succ, List.getElem_cons_zero, List.setIfInBounds_toArray, List.set_cons_zero, List.set_cons_succ]
          rw [if_pos (by rfl)]
          go_simp
          refine (rest_blk c hc (w.heap.size + 1 + 1) _ HZ.out).mono ?_; rintro e u4 ⟨rfl, hb⟩
          refine hK.out _ _ trivial ?_
          clear hK K
          have HX := Lib.hid (HX.out.keep hb)
          have HY := Lib.hid (HY.out.keep hb)
          have HZ := Lib.hid (HZ.out.keep hb)
          have HR := Lib.hid (HR.out.keep hb)
          have Hq := Lib.hid (Hq.out.keep hb)
          have Hp := Lib.hid (Hp.out.keep hb)
          have HB := Lib.hid (bl_call HB.out hb)
          clear hb
          try simp only [Act.put, List.getElem_toArray, List.getElem_cons_succ, List.getElem_cons_zero, List.setIfInBounds_toArray, List.set_cons_zero, List.set_cons_succ]
          refine reg_step hR 6 (by kernel_rfl) rfl fun K hK => ?_
          try simp only [Act.put, List.getElem_toArray, List.getElem_cons_succ, List.getElem_cons_zero, List.setIfInBounds_toArray, List.set_cons_zero, List.set_cons_succ]
          rw [if_pos (by rfl)]
          refine wp_store_bk 40 _ _ rfl p rfl (cs64 (wd (b % LL))) z40 rfl Hp.out (wd_info _) (wd_zlen _) (cs64_one _) ?_
          refine hK.out _ _ trivial ?_
          clear hK K
          have HX := Lib.hid (HX.out.other (show w.heap.size ≠ p by omega) (cs64 (wd (b % LL))).toArray)
          have HY := Lib.hid (HY.out.other (show w.heap.size + 1 ≠ p by omega) (cs64 (wd (b % LL))).toArray)
          have HZ := Lib.hid (HZ.out.other (show w.heap.size + 1 + 1 ≠ p by omega) (cs64 (wd (b % LL))).toArray)
          have HR := Lib.hid (HR.out.other (show w.heap.size + 1 + 1 + 1 ≠ p by omega) (cs64 (wd (b % LL))).toArray)
          have Hq := Lib.hid (Hq.out.other (show q ≠ p by omega) (cs64 (wd (b % LL))).toArray)
          have Hp := Lib.hid (Hp.out.setRow (cs64 (wd (b % LL))))
          have HB := Lib.hid (bl_setRow HB.out (show w.heap.size ≤ p by omega) (cs64 (wd (b % LL))).toArray)
          generalize hg : u4.setRow p (cs64 (wd (b % LL))).toArray = u5 at HX HY HZ HR Hq Hp HB ⊢
          clear hg
          try simp only [Act.put, List.getElem_toArray, List.getElem_cons_succ, List.getElem_cons_zero, List.setIfInBounds_toArray, List.set_cons_zero, List.set_cons_succ]
          refine reg_step hR 7 (by kernel_rfl) rfl fun K hK => ?_
          try simp only [Act.put, List.getElem_toArray, List.getElem_cons_succ, List.getElem_cons_zero, List.setIfInBounds_toArray, List.set_cons_zero, List.set_cons_succ]
          rw [if_pos (by rfl)]
          refine wp_store_bk 40 _ _ rfl q rfl (cs64 (wd (c % LL))) z40 rfl Hq.out (wd_info _) (wd_zlen _) (cs64_one _) ?_
          refine hK.out _ _ trivial ?_
          clear hK K
          have HX := Lib.hid (HX.out.other (show w.heap.size ≠ q by omega) (cs64 (wd (c % LL))).toArray)
          have HY := Lib.hid (HY.out.other (show w.heap.size + 1 ≠ q by omega) (cs64 (wd (c % LL))).toArray)
          have HZ := Lib.hid (HZ.out.other (show w.heap.size + 1 + 1 ≠ q by omega) (cs64 (wd (c % LL))).toArray)
          have HR := Lib.hid (HR.out.other (show w.heap.size + 1 + 1 + 1 ≠ q by omega) (cs64 (wd (c % LL))).toArray)
          have Hq := Lib.hid (Hq.out.setRow (cs64 (wd (c % LL))))
          have Hp := Lib.hid (Hp.out.other (show p ≠ q by omega) (cs64 (wd (c % LL))).toArray)
          have HB := Lib.hid (bl_setRow HB.out (show w.heap.size ≤ q by omega) (cs64 (wd (c % LL))).toArray)
          generalize hg : u5.setRow q (cs64 (wd (c % LL))).toArray = u6 at HX HY HZ HR Hq Hp HB ⊢
          clear hg
          try simp only [Act.put, List.getElem_toArray, List.getElem_cons_succ, List.getElem_cons_zero, List.setIfInBounds_toArray, List.set_cons_zero, List.set_cons_succ]
          refine reg_done (by kernel_rfl) ?_ _
          exact ⟨rfl, p, q, rfl, by omega, by omega, by omega, by omega, by omega, by omega, by omega, Hp, Hq, HX, HR, HB⟩
      · refine ⟨_, rfl, fun K hK => ?_⟩
        try simp only [Act.put, List.getElem_toArray, List.getElem_cons_succ, List.getElem_cons_zero, List.setIfInBounds_toArray, List.set_cons_zero, List.set_cons_succ]
        rw [if_pos (by rfl)]
        refine wp_alloc_z 40 rfl z40 zero40 ?_
        refine hK.out _ _ trivial ?_
        clear hK K
        have hnHXp : w.heap.size ≠ u1.heap.size := by have := HX.out.lt; omega
        have hnHYp : w.heap.size + 1 ≠ u1.heap.size := by have := HY.out.lt; omega
        have hnHZp : w.heap.size + 1 + 1 ≠ u1.heap.size := by have := HZ.out.lt; omega
        have hnHRp : w.heap.size + 1 + 1 + 1 ≠ u1.heap.size := by have := HR.out.lt; omega
        have hnHqp : q ≠ u1.heap.size := by have := Hq.out.lt; omega
        have Hp := Lib.hid (Bk.new u1 z40 40)
        have HX := Lib.hid (HX.out.old (.cells z40.toArray 40))
        have HY := Lib.hid (HY.out.old (.cells z40.toArray 40))
        have HZ := Lib.hid (HZ.out.old (.cells z40.toArray 40))
        have HR := Lib.hid (HR.out.old (.cells z40.toArray 40))
        have Hq := Lib.hid (Hq.out.old (.cells z40.toArray 40))
        have hlp : w.heap.size ≤ u1.heap.size := HB.out.size
        have HB := Lib.hid (bl_alloc HB.out (.cells z40.toArray 40))
        generalize hg : u1.alloc (.cells z40.toArray 40) = u2 at Hp HX HY HZ HR Hq HB ⊢
        clear hg
        generalize hg : u1.heap.size = p at *
        clear hg
        try simp only [Act.put, List.getElem_toArray, List.getElem_cons_succ, List.getElem_cons_zero, List.setIfInBounds_toArray, List.set_cons_zero, List.set_cons_succ]
        refine reg_step hR 1 (by kernel_rfl) rfl fun K hK => ?_
        try simp only [Act.put, List.getElem_toArray, List.getElem_cons_succ, List.getElem_cons_zero, List.setIfInBounds_toArray, List.set_cons_zero, List.set_cons_succ]
        rw [if_pos (by rfl)]
        go_simp
        refine (rest_blk b hb (w.heap.size + 1) _ HY.out).mono ?_; rintro e u3 ⟨rfl, hb⟩
        refine hK.out _ _ trivial ?_
        clear hK K
        have HX := Lib.hid (HX.out.keep hb)
        have HY := Lib.hid (HY.out.keep hb)
        have HZ := Lib.hid (HZ.out.keep hb)
        have HR := Lib.hid (HR.out.keep hb)
        have Hq := Lib.hid (Hq.out.keep hb)
        have Hp := Lib.hid (Hp.out.keep hb)
        have HB := Lib.hid (bl_call HB.out hb)
        clear hb
        try simp only [Act.put, List.getElem_toArray, List.getElem_cons_succ, List.getElem_cons_zero, List.setIfInBounds_toArray, List.set_cons_zero, List.set_cons_succ]
        refine reg_step hR 3 (by kernel_rfl) rfl fun K hK => ?_
        try simp only [Act.put, List.getElem_toArray, List.getElem_cons_succ, List.getElem_cons_zero, List.setIfInBounds_toArray, List.set_cons_zero, List.set_cons_succ]
        rw [if_pos (by rfl)]
        go_simp
        refine (rest_blk c hc (w.heap.size + 1 + 1) _ HZ.out).mono ?_; rintro e u4 ⟨rfl, hb⟩
        refine hK.out _ _ trivial ?_
        clear hK K
        have HX := Lib.hid (HX.out.keep hb)
        have HY := Lib.hid (HY.out.keep hb)
        have HZ := Lib.hid (HZ.out.keep hb)
        have HR := Lib.hid (HR.out.keep hb)
        have Hq := Lib.hid (Hq.out.keep hb)
        have Hp := Lib.hid (Hp.out.keep hb)
        have HB := Lib.hid (bl_call HB.out hb)
        clear hb
        try simp only [Act.put, List.getElem_toArray, List.getElem_cons_succ, List.getElem_cons_zero, List.setIfInBounds_toArray, List.set_cons_zero, List.set_cons_succ]
        refine reg_step hR 6 (by kernel_rfl) rfl fun K hK => ?_
        try simp only [Act.put, List.getElem_toArray, List.getElem_cons_succ, List.getElem_cons_zero, List.setIfInBounds_toArray, List.set_cons_zero, List.set_cons_succ]
        rw [if_pos (by rfl)]
        refine wp_store_bk 40 _ _ rfl p rfl (cs64 (wd (b % LL))) z40 rfl Hp.out (wd_info _) (wd_zlen _) (cs64_one _) ?_
        refine hK.out _ _ trivial ?_
        clear hK K
        have HX := Lib.hid (HX.out.other (show w.heap.size ≠ p by omega) (cs64 (wd (b % LL))).toArray)
        have HY := Lib.hid (HY.out.other (show w.heap.size + 1 ≠ p by omega) (cs64 (wd (b % LL))).toArray)
        have HZ := Lib.hid (HZ.out.other (show w.heap.size + 1 + 1 ≠ p by omega) (cs64 (wd (b % LL))).toArray)
        have HR := Lib.hid (HR.out.other (show w.heap.size + 1 + 1 + 1 ≠ p by omega) (cs64 (wd (b % LL))).toArray)
        have Hq := Lib.hid (Hq.out.other (show q ≠ p by omega) (cs64 (wd (b % LL))).toArray)
        have Hp := Lib.hid (Hp.out.setRow (cs64 (wd (b % LL))))
        have HB := Lib.hid (bl_setRow HB.out (show w.heap.size ≤ p by omega) (cs64 (wd (b % LL))).toArray)
        generalize hg : u4.setRow p (cs64 (wd (b % LL))).toArray = u5 at HX HY HZ HR Hq Hp HB ⊢
        clear hg
        try simp only [Act.put, List.getElem_toArray, List.getElem_cons_succ, List.getElem_cons_zero, List.setIfInBounds_toArray, List.set_cons_zero, List.set_cons_succ]
        refine reg_step hR 7 (by kernel_rfl) rfl fun K hK => ?_
        try simp only [Act.put, List.getElem_toArray, List.getElem_cons_succ, List.getElem_cons_zero, List.setIfInBounds_toArray, List.set_cons_zero, List.set_cons_succ]
        rw [if_pos (by rfl)]
        refine wp_store_bk 40 _ _ rfl q rfl (cs64 (wd (c % LL))) z40 rfl Hq.out (wd_info _) (wd_zlen _) (cs64_one _) ?_
        refine hK.out _ _ trivial ?_
        clear hK K
        have HX := Lib.hid (HX.out.other (show w.heap.size ≠ q by omega) (cs64 (wd (c % LL))).toArray)
        have HY := Lib.hid (HY.out.other (show w.heap.size + 1 ≠ q by omega) (cs64 (wd (c % LL))).toArray)
        have HZ := Lib.hid (HZ.out.other (show w.heap.size + 1 + 1 ≠ q by omega) (cs64 (wd (c % LL))).toArray)
        have HR := Lib.hid (HR.out.other (show w.heap.size + 1 + 1 + 1 ≠ q by omega) (cs64 (wd (c % LL))).toArray)
        have Hq := Lib.hid (Hq.out.setRow (cs64 (wd (c % LL))))
        have Hp := Lib.hid (Hp.out.other (show p ≠ q by omega) (cs64 (wd (c % LL))).toArray)
        have HB := Lib.hid (bl_setRow HB.out (show w.heap.size ≤ q by omega) (cs64 (wd (c % LL))).toArray)
        generalize hg : u5.setRow q (cs64 (wd (c % LL))).toArray = u6 at HX HY HZ HR Hq Hp HB ⊢
        clear hg
        try simp only [Act.put, List.getElem_toArray, List.getElem_cons_succ, List.getElem_cons_zero, List.setIfInBounds_toArray, List.set_cons_zero, List.set_cons_succ]
        refine reg_done (by kernel_rfl) ?_ _
        exact ⟨rfl, p, q, rfl, by omega, by omega, by omega, by omega, by omega, by omega, by omega, Hp, Hq, HX, HR, HB⟩
  · rintro a' u ⟨p, q, rfl, hpq, hpr, hqr, hpx, hqx, hlp, hlq, HP, HQ, HX, HR, HB⟩
    go_wp2_with fail
    have ht := times_blk a ha w.heap.size p (b % LL) HLb.out u HX.out HP.out
    rw [Nat.mul_mod_mod] at ht
    refine ht.mono ?_; rintro e u2 ⟨rfl, hb2⟩
    clear ht
    have HQ := Lib.hid (HQ.out.keep hb2)
    have HR := Lib.hid (HR.out.keep hb2)
    have HB := Lib.hid (bl_call HB.out hb2)
    have HT := Lib.hid (Bk.new u2 z40 40)
    clear hb2
    go_wp2_with (first | (refine wpList_alloc_z rfl 40 rfl z40 zero40 ?_) | (refine wpList_store_bk rfl 40 _ _ rfl u2.heap.size rfl (cs64 (wd (a * b % LL))) z40 rfl HT.out (wd_info _) (wd_zlen _) (cs64_one _) ?_) | fail)
    have hq2 := HQ.out.lt
    have hr2 := HR.out.lt
    have HQ := Lib.hid ((HQ.out.old (.cells z40.toArray 40)).other (show q ≠ u2.heap.size by omega) (cs64 (wd (a * b % LL))).toArray)
    have HR := Lib.hid ((HR.out.old (.cells z40.toArray 40)).other (show w.heap.size + 1 + 1 + 1 ≠ u2.heap.size by omega) (cs64 (wd (a * b % LL))).toArray)
    have HT := Lib.hid (HT.out.setRow (cs64 (wd (a * b % LL))))
    have hs2 := HB.out.size
    have HB := Lib.hid (bl_setRow (bl_alloc HB.out (.cells z40.toArray 40)) hs2 (cs64 (wd (a * b % LL))).toArray)
    generalize hu3 : (u2.alloc (.cells z40.toArray 40)).setRow u2.heap.size (cs64 (wd (a * b % LL))).toArray = u3 at HQ HR HT HB ⊢
    clear hu3
    generalize u2.heap.size = t at *
    have HE := Lib.hid (show (a * b % LL + c % LL) % LL = (a * b + c) % LL from (Nat.add_mod _ _ _).symm)
    have HLT := Lib.hid (Nat.mod_lt (a * b) LL_pos)
    refine (add_any (a * b % LL) (c % LL) t q u3 (by have := HLT.out; have := HLc.out; omega) HT.out HQ.out).mono ?_; rintro e u4 ⟨⟨v, rfl⟩, hb4, hk4⟩
    rw [HE.out] at hb4
    have HT := Lib.hid hb4
    have HR := Lib.hid (HR.out.kp hk4 (by omega))
    have HB := Lib.hid (bl_kp HB.out hk4 (by intro k hk; omega))
    clear hb4 hk4
    go_wp2_with fail
    refine (join_any ((a * b + c) % LL) t _ HT.out).mono ?_; rintro e u5 ⟨rfl, hb5⟩
    have HR := Lib.hid (HR.out.keep hb5)
    have HB := Lib.hid (bl_call HB.out hb5)
    clear hb5
    have HN := Lib.hid (num_info ((a * b + c) % LL))
    unfold num
    go_wp2_with (first | (refine wpList_store_bk rfl 25 _ _ rfl (w.heap.size + 1 + 1 + 1) rfl (cs8 (le 32 ((a * b + c) % LL))) z25 rfl HR.out HN.out (num_zlen _) (cs8_all _) ?_) | fail)
    exact ret_bk rfl (w.heap.size + 1 + 1 + 1) _ _ rfl rfl (HR.out.setRow _) Try.underlying25 rfl HN.out ⟨rfl, bl_setRow HB.out (by omega) _⟩
end Go.Proofs.Ytdfaliadkpdfpaa
