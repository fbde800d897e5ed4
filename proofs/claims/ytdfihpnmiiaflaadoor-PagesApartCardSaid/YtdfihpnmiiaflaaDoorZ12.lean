/- Texts of this claim, one behind the other: PPa, PWh. -/
import Derived.Test.YtdfihpnmiiaflaaDoorZ07
import Derived.Test.YtdfihpnmiiaflaaDoorZ10
import Derived.Laws.CopyRow
import Derived.Laws.IdiomCopy
set_option linter.unusedSimpArgs false
set_option linter.unusedVariables false
section
/- A page's bytes; copies into a block of bytes. -/
namespace Go.Proofs.YtdfihpnmiiaflaaDoor
set_option maxRecDepth 8192
set_option linter.unusedSimpArgs false
set_option linter.unusedVariables false
open Go.RowKit

/-- A body with noughts behind it. -/
def padP (b : List UInt8) : List UInt8 := b ++ List.replicate (500 - b.length) 0
theorem padP_length {b : List UInt8} (h : b.length ≤ 500) : (padP b).length = 500 := by rw [padP, List.length_append, List.length_replicate]; omega
theorem padP_self {b : List UInt8} (h : b.length = 500) : padP b = b := by rw [padP, h]; simp
/-- The sum's first bytes. -/
def sumP (n : Nat) (b : List UInt8) : List UInt8 := (sumS (OwordB n 4 ++ b)).take 12
/-- What stands in a page's sectors. -/
def pageB (n : Nat) (b : List UInt8) : List UInt8 := sumP n (padP b) ++ padP b
theorem sumP_length (n : Nat) (b : List UInt8) : (sumP n b).length = 12 := by
  have : (sumS (OwordB n 4 ++ b)).length = 32 := by rw [sumS, List.length_take, sumOf, signs_length, eat_length _ _ _ _ startS_length]; rfl
  rw [sumP, List.length_take, this]; rfl
theorem pageB_length {n : Nat} {b : List UInt8} (h : b.length ≤ 500) : (pageB n b).length = 512 := by rw [pageB, List.length_append, sumP_length, padP_length h]
theorem size5p : (Tryd.prog.info? 5).map (·.size) = some 1 := by kernel_rfl

theorem grown_setRow (w : World) (g : Nat) (cs : Array Value) : w.grownBy (w.setRow g cs) (some g) := ⟨rfl, rfl, rfl, by simp [World.setRow], fun k _ hk => setRow_other w g k cs (fun e => hk (by rw [e]))⟩
/-- Bytes copied to a place within a block of bytes. -/
theorem run_copyAt {w : World} {top g off dL dC n c m : Nat} {A : Option Addr} {l X : List UInt8} (hr : Rd w top A n c l) (hg : Bk w g (cs8 X)) (hm : m = min n dL) (hX : off + m ≤ X.length) (ty : TypeId) :
    ∃ w', (Builtin.copy_ #[30, 30] ty #[.slice (some ⟨g, off, none⟩) dL dC, .slice A n c]).run Tryd.prog w = .ok (goInt m) w' ∧ Bk w' g (cs8 (X.take off ++ l.take m ++ X.drop (off + m))) ∧ Only g w w' := by
  have hl := hr.len
  rcases Nat.eq_zero_or_pos m with h0 | h0
  · subst h0
    refine ⟨w, ?_, ?_, Only.refl g w⟩
    · have := run_copy_none (P := Tryd.prog) w 30 30 ty 5 (some ⟨g, off, none⟩) A dL dC n c Tryd.underlying30 size5p hm.symm
      exact this
    · simpa using hg
  · obtain ⟨ad, rfl, had, hcell⟩ := hr.2.2 (by omega)
    obtain ⟨t, hg⟩ := hg
    have hlt : (cs8 (l.take m)).length = m := by rw [cs8_length, List.length_take]; omega
    have hcp := run_copy_row (P := Tryd.prog) w 30 30 ty 5 g off dL dC ad n c _ t (cs8 (l.take m)) Tryd.underlying30 size5p hg (by rw [hlt]; exact hm) (fun j v hj => by
      simp only [cs8, List.getElem?_map, Option.map_eq_some_iff] at hj
      obtain ⟨u, hu, rfl⟩ := hj
      rw [List.getElem?_take] at hu
      split at hu
      · exact hcell j u hu
      · cases hu) (by rw [hlt, List.size_toArray, cs8_length]; exact hX) (cs8_one _)
    have hnew : ((cs8 X).toArray.toList.take off ++ cs8 (l.take m) ++ (cs8 X).toArray.toList.drop (off + (cs8 (l.take m)).length)).toArray = (cs8 (X.take off ++ l.take m ++ X.drop (off + m))).toArray := by
      congr 1
      rw [hlt]
      simp [cs8, List.map_take, List.map_drop]
    rw [hnew, hlt] at hcp
    refine ⟨_, hcp, ⟨t, setRow_heap w g _ _ t (0, 0) hg⟩, ?_⟩
    exact grown_setRow w g _
theorem wpList_copyAt {w : World} {ops : Array Oper} {rest : List Oper} {o : Oper} {a : Act} {Q : Exit → Act → World → Prop} (hgd : o.guard = none) (d s : Operand)
    (ho : o.op = .call { callee := .builtin .copy, args := #[d, s], argTypes := #[30, 30] }) {top g off dL dC n c m : Nat} {A : Option Addr} {l X : List UInt8}
    (hd : a.eval d = .slice (some ⟨g, off, none⟩) dL dC) (hs : a.eval s = .slice A n c) (hr : Rd w top A n c l) (hg : Bk w g (cs8 X)) (hm : m = min n dL) (hX : off + m ≤ X.length)
    (h : ∀ w', Bk w' g (cs8 (X.take off ++ l.take m ++ X.drop (off + m))) → Only g w w' → wpList Tryd.prog ops Q rest (a.put o.dst (.int .i64 (m : Int))) w') : wpList Tryd.prog ops Q (o :: rest) a w := by
  refine wpList_plain hgd fun K hK => ?_
  obtain ⟨w', hrun, h1, h2⟩ := run_copyAt (dC := dC) hr hg hm hX o.type
  unfold Oper.wp execOp
  simp only [ho, resolve, invoke, builtin, Sem.run_bind, Sem.run_pure, Result.andThen_ok, List.map_toArray, List.map_cons, List.map_nil, hd, hs, hrun]
  exact hK _ _ (h w' h1 h2)
theorem wp_copyAt {w : World} {o : Oper} {a : Act} {K : Act → World → Prop} {Q : Exit → Act → World → Prop} (d s : Operand)
    (ho : o.op = .call { callee := .builtin .copy, args := #[d, s], argTypes := #[30, 30] }) {top g off dL dC n c m : Nat} {A : Option Addr} {l X : List UInt8}
    (hd : a.eval d = .slice (some ⟨g, off, none⟩) dL dC) (hs : a.eval s = .slice A n c) (hr : Rd w top A n c l) (hg : Bk w g (cs8 X)) (hm : m = min n dL) (hX : off + m ≤ X.length)
    (h : ∀ w', Bk w' g (cs8 (X.take off ++ l.take m ++ X.drop (off + m))) → Only g w w' → K (a.put o.dst (.int .i64 (m : Int))) w') : o.wp Tryd.prog a w K Q := by
  obtain ⟨w', hrun, h1, h2⟩ := run_copyAt (dC := dC) hr hg hm hX o.type
  unfold Oper.wp execOp
  simp only [ho, resolve, invoke, builtin, Sem.run_bind, Sem.run_pure, Result.andThen_ok, List.map_toArray, List.map_cons, List.map_nil, hd, hs, hrun]
  exact h w' h1 h2
section
variable {P : Program} {ops : Array Oper} {Q : Exit → Act → World → Prop} {R : World → World → Prop}
/-- Some are ready: each way. -/
theorem reg_fork (hR : Stays R) {rs : List Nat} {fuel : Nat} {listed : Array Bool} {a : Act} {w : World} (hr : Region.ready .any ops listed = rs) (hne : rs ≠ [])
    (h : ∀ i, i ∈ rs → ∃ o, ops[i]? = some o ∧ ∀ K : Act → World → Prop, Shut (∀ a' w', R w w' → wpAnyH P .any ops Q (R w') fuel (listed.setIfInBounds i true) a' w' → K a' w') →
      if Region.wanted o (yielded ops a.tmps) = true then Oper.wp P o a w K Q else K (a.put o.dst undef) w) : wpAnyH P .any ops Q (R w) (fuel + 1) listed a w := by
  refine wpAnyH_all hr hne fun j hj => ?_
  obtain ⟨o, ho, h1⟩ := h j hj
  have h1 := h1 (fun a' w' => R w w' ∧ wpAnyH P .any ops Q (R w) fuel (listed.setIfInBounds j true) a' w') (fun a' w' hw hh => ⟨hw, held_weaken (fun W hW => hR.trans hw hW) _ _ _ _ hh⟩)
  unfold wpOp
  simp only [ho]
  split
  · rename_i hw; rw [if_pos hw] at h1; exact .inl h1
  · rename_i hw; rw [if_neg hw] at h1; exact h1
/-- Values put, one after another. -/
def puts (a : Act) (l : List (Nat × Value)) : Act := l.foldl (fun a x => a.put (some x.1) x.2) a
theorem region_meetQ {c : Code} {a : Act} {w : World} (S : Act → Act → World → Prop) (h1 : c.wp P (fun e a' w' => e = .normal ∧ S a a' w') a w) (h2 : ∀ a' w', S a a' w' → Q .normal a' w') : c.wp P Q a w :=
  Code.wp_mono (by rintro e a' w' ⟨rfl, h⟩; exact h2 a' w' h) h1
end
theorem Ow.sl {w : World} {base n : Nat} {l : List UInt8} {v : Value} (h : Ow w base v l) (hn : l.length = n) : ∃ A c, v = .slice A n c ∧ Sl w w.heap.size A n c l := by
  obtain ⟨A, c, rfl, hr⟩ := h.rdN hn
  exact ⟨A, c, rfl, hr, fun a ha => (World.ownsRow.lt h a.block (by rw [ha]; rfl)).2⟩
theorem Sl.up {w w' : World} {n c : Nat} {A : Option Addr} {l : List UInt8} (h : Sl w w.heap.size A n c l) (hb : Below w.heap.size w w') : Sl w' w'.heap.size A n c l :=
  ⟨(h.1.below hb).more hb.size, fun a ha => Nat.lt_of_lt_of_le (h.2 a ha) hb.size⟩
theorem Rl.up {w w' : World} {m : Nat} {B : Option Addr} {L : List (List UInt8)} (h : Rl w w.heap.size B m L) (hb : Below w.heap.size w w') : Rl w' w'.heap.size B m L :=
  ⟨h.1, fun j x hx => by
    obtain ⟨ad, A, n, c, e, h1, h2, h3, h4⟩ := (h.below hb).2 j x hx
    exact ⟨ad, A, n, c, e, Nat.lt_of_lt_of_le h1 hb.size, h2, h3.more hb.size, fun a ha => Nat.lt_of_lt_of_le (h4 a ha) hb.size⟩⟩
/-- Bytes from k on within a block of bytes. -/
theorem Sl.of_block {w : World} {g k : Nat} {X : List UInt8} (hg : Bk w g (cs8 X)) (hk : k ≤ X.length) : Sl w w.heap.size (some ⟨g, k, none⟩) (X.length - k) (X.length - k) (X.drop k) := by
  have hlt := hg.lt
  refine ⟨⟨by rw [List.length_drop], Nat.le_refl _, fun _ => ⟨_, rfl, hlt, fun j u hu => ?_⟩⟩, fun a ha => by injection ha with ha; subst ha; exact hlt⟩
  have : (⟨g, k, none⟩ : Addr).add j = ⟨g, k + j, none⟩ := by unfold Addr.add; split <;> simp_all
  rw [this]
  refine hg.cell ?_
  rw [List.getElem?_drop] at hu
  simp [cs8, hu]
theorem zero70 (w : World) : (zeroValue 70).run Tryd.prog w = .ok (.agg (cs8 (List.replicate 512 0)).toArray) w := zero_of (by kernel_rfl) w
theorem info70 : (Tryd.prog.info? 70).map (·.size) = some 512 := by kernel_rfl
end Go.Proofs.YtdfihpnmiiaflaaDoor
end
section
/- A page of a number and a body. -/
namespace Go.Proofs.YtdfihpnmiiaflaaDoor
set_option maxRecDepth 8192
set_option linter.unusedSimpArgs false
set_option linter.unusedVariables false
open Go.RowKit

set_option maxHeartbeats 1600000 in
theorem whole_any {A : Option Addr} {k c : Nat} {b : List UInt8} (n : Nat) (w : World) (hr : Rd w w.heap.size A k c b) (hk : k ≤ 500) (hn : n ≤ 4294967295) :
    Calls Tryd.prog 32 #[.int .i64 (n : Int), .slice A k c] w fun e w' => e = .returned (.agg (cs8 (pageB n b)).toArray) ∧ Below w.heap.size w w' := by
  obtain ⟨Z, hZ⟩ : ∃ Z : List UInt8, Z = List.replicate 512 0 := ⟨_, rfl⟩
  have hz : ∀ w, (zeroValue 70).run Tryd.prog w = .ok (.agg (cs8 Z).toArray) w := by rw [hZ]; exact zero70
  have hZl : Z.length = 512 := by rw [hZ]; simp
  have hbl := hr.len
  have hX : Z.take 12 ++ b.take k ++ Z.drop (12 + k) = List.replicate 12 0 ++ padP b := by
    have h2 : b.take k = b := List.take_of_length_le (by omega)
    rw [h2, hZ, List.take_replicate, List.drop_replicate, padP, List.append_assoc, hbl, show 512 - (12 + k) = 500 - k by omega]
    rfl
  have hfin : ∀ P S : List UInt8, P.length = 500 → S.length = 32 → (List.replicate 12 (0 : UInt8) ++ P).take 0 ++ S.take 12 ++ (List.replicate 12 (0 : UInt8) ++ P).drop (0 + 12) = S.take 12 ++ P := by
    intro P S hP hS
    rw [List.take_zero, List.nil_append, List.drop_append_of_le_length (by simp)]
    simp
  have hpl := padP_length (b := b) (by omega)
  have HSl : ∀ S : List UInt8, Hid (S = sumS (OwordB n 4 ++ padP b)) → S.length = 32 := by
    intro S h
    rw [h.out, sumS, List.length_take, sumOf, signs_length, eat_length _ _ _ _ startS_length]; rfl
  have HPG : Hid (pageB n b = (sumS (OwordB n 4 ++ padP b)).take 12 ++ padP b) := Lib.hid rfl
  rw [HPG.out]
  clear HPG
  generalize padP b = pb at hX hpl HSl ⊢
  have HFL := Lib.hid (show [OwordB n 4, pb].flatten = OwordB n 4 ++ pb by simp)
  have HWL := Lib.hid (show (OwordB n 4).length = 4 by simp [OwordB])
  have HWn : Hid (IntKind.u64.wrap (n : Int) = (n : Int)) := Lib.hid (by rw [wrapN, Nat.mod_eq_of_lt (by omega)])
  generalize hwd : OwordB n 4 = wd at HFL HWL HSl ⊢
  have HWD := Lib.hid hwd
  clear hwd
  obtain ⟨S, hS⟩ : ∃ S, S = sumS (wd ++ pb) := ⟨_, rfl⟩
  have hSl := HSl S (Lib.hid hS)
  have HSS := Lib.hid hS.symm
  have HS3 := Lib.hid (show (cs8 S).length = 32 by rw [cs8_length, hSl])
  rw [HSS.out]
  clear hS HSl
  have HPL := Lib.hid hpl
  have HFIN := Lib.hid (hfin pb S hpl hSl)
  have HX := Lib.hid hX
  have HZL := Lib.hid hZl
  have HZZ := Lib.hid hz
  have HX12 : Hid ((List.replicate 12 (0 : UInt8) ++ pb).length = 512) := Lib.hid (by rw [List.length_append, hpl]; simp)
  have HD12 : Hid ((List.replicate 12 (0 : UInt8) ++ pb).drop 12 = pb) := Lib.hid (by rw [List.drop_append_of_le_length (by simp)]; simp)
  have hSl' := Lib.hid hSl
  clear hfin hX hZ hZl hz hpl hSl
  generalize List.replicate 12 (0 : UInt8) ++ pb = X at HX HX12 HD12 HFIN
  have HB2 := Lib.hid (bl_alloc (bl_alloc (bl0 w) (.cells (cs8 Z).toArray 70)) (.cells (cs8 Z).toArray 70))
  have HK0 := Lib.hid (((Bk.new w (cs8 Z) 70).old (.cells (cs8 Z).toArray 70)))
  have HK1 : Hid (Bk ((w.alloc (.cells (cs8 Z).toArray 70)).alloc (.cells (cs8 Z).toArray 70)) (w.heap.size + 1) (cs8 Z)) := Lib.hid (by have := Bk.new (w.alloc (.cells (cs8 Z).toArray 70)) (cs8 Z) 70; simpa using this)
  have HR2 := Lib.hid (hr.below HB2.out)
  clear hr
  go_enter Tryd.func32, Tryd.ntmps32
  go_wp2_with (first | (refine wpList_alloc_z rfl 70 rfl (cs8 Z) HZZ.out ?_) | (refine wpList_copyAt (off := 12) (m := k) rfl _ _ rfl rfl rfl HR2.out HK1.out (by omega) (by rw [HZL.out]; omega) ?_; intro T hkT hoT; rw [HX.out] at hkT; have HGT := Lib.hid hkT; have HOT := Lib.hid hoT; clear hkT hoT))
  have HBT : Hid (Below w.heap.size w T) := Lib.hid (bl_only HB2.out HOT.out (by omega))
  have HLT : Hid (w.heap.size + 1 < T.heap.size) := Lib.hid HGT.out.lt
  have HK0T : Hid (Bk T w.heap.size (cs8 Z)) := Lib.hid (by
    obtain ⟨t, h⟩ := HK0.out
    exact ⟨t, (HOT.out.block _ (by simp; omega) (by simp)).trans h⟩)
  clear HOT HK0 HK1 HR2 HB2
  have HP : ∀ W, Below T.heap.size T W → Sl W W.heap.size (some ⟨w.heap.size + 1, 12, none⟩) 500 500 pb := fun W hW => by
    have := Sl.of_block (HGT.out.keep hW) (k := 12) (by rw [HX12.out]; omega)
    rw [HX12.out, HD12.out] at this
    exact this
  have HP := Lib.hid HP
  generalize hg : w.heap.size + 1 = g at *
  have HGG := Lib.hid hg
  clear hg
  refine region_meetQ (fun a0 a' w' => ∃ A1 c1 b1 h, a' = puts a0 [(10, .int .i64 (n : Int)), (11, .int .u64 (n : Int)), (12, .slice A1 4 c1), (13, .slice (some ⟨g, 12, none⟩) 500 500), (14, .slice (some ⟨b1, 0, none⟩) 2 2), (15, .agg (cs8 S).toArray), (6, .pointer (some ⟨h, 0, none⟩))] ∧ Hid (T.heap.size ≤ h) ∧ Hid (Bk w' h (cs8 S)) ∧ Hid (Below T.heap.size T w')) ?_ ?_
  · have hR := Sb.stays T.heap.size
    refine reg_start (Sb T.heap.size) follows_mixed ?_
    have HB := Lib.hid (Below.refl T.heap.size T).drew
    generalize T.drew = u0 at HB ⊢
    refine reg_take (v := .int .i64 (n : Int)) hR 0 rfl (by kernel_rfl) (by kernel_rfl) (by kernel_rfl) (fun _ _ _ h => by cases h.1) (by rfl) ?_ ?_
    · intro W hW; go_simp; try with_reducible rfl
    try simp only [Act.put, List.getElem_toArray, List.getElem_cons_succ, List.getElem_cons_zero, List.setIfInBounds_toArray, List.set_cons_zero, List.set_cons_succ]
    refine reg_take (v := .int .u64 (n : Int)) hR 1 rfl (by kernel_rfl) (by kernel_rfl) (by kernel_rfl) (fun _ _ _ h => by cases h.1) (by rfl) ?_ ?_
    · intro W hW; go_simp; exact HWn.out
    try simp only [Act.put, List.getElem_toArray, List.getElem_cons_succ, List.getElem_cons_zero, List.setIfInBounds_toArray, List.set_cons_zero, List.set_cons_succ]
    refine reg_take (v := .slice (some ⟨g, 12, none⟩) 500 500) hR 3 rfl (by kernel_rfl) (by kernel_rfl) (by kernel_rfl) (fun _ _ _ h => by cases h.1) (by rfl) ?_ ?_
    · intro W hW; go_simp; try with_reducible rfl
    try simp only [Act.put, List.getElem_toArray, List.getElem_cons_succ, List.getElem_cons_zero, List.setIfInBounds_toArray, List.set_cons_zero, List.set_cons_succ]
    refine reg_fork (rs := [2, 6]) hR (by kernel_rfl) (by simp) ?_
    intro i hi; simp only [List.mem_cons, List.not_mem_nil, or_false] at hi
    rcases hi with rfl | rfl
    · refine ⟨_, rfl, fun K hK => ?_⟩
      try simp only [Act.put, List.getElem_toArray, List.getElem_cons_succ, List.getElem_cons_zero, List.setIfInBounds_toArray, List.set_cons_zero, List.set_cons_succ]
      rw [if_pos (by rfl)]
      go_simp
      refine (OWord_any (A := none) (k := 0) (c := 0) (l := []) (n : Int) 4 u0 (Rd.nil _ _ _ _) (by omega) (by omega) (by omega)).mono ?_; rintro e u1 ⟨v1, rfl, ho1, hb⟩
      rw [show (min (max (4 : Int) 1) 8).toNat = 4 from rfl, List.nil_append, show ((n : Int)).toNat = n by omega, HWD.out] at ho1
      refine hK.out _ _ (show Below _ _ _ from hb.mono HB.out.size) ?_
      clear hK K
      obtain ⟨A1, c1, rfl, hs1⟩ := ho1.sl (n := 4) HWL.out
      have HS := Lib.hid hs1
      replace HB := Lib.hid (HB.out.trans (hb.mono HB.out.size))
      clear ho1 hs1 hb
      try simp only [Act.put, List.getElem_toArray, List.getElem_cons_succ, List.getElem_cons_zero, List.setIfInBounds_toArray, List.set_cons_zero, List.set_cons_succ]
      refine reg_fork (rs := [4, 6]) hR (by kernel_rfl) (by simp) ?_
      intro i hi; simp only [List.mem_cons, List.not_mem_nil, or_false] at hi
      rcases hi with rfl | rfl
      · refine ⟨_, rfl, fun K hK => ?_⟩
        try simp only [Act.put, List.getElem_toArray, List.getElem_cons_succ, List.getElem_cons_zero, List.setIfInBounds_toArray, List.set_cons_zero, List.set_cons_succ]
        rw [if_pos (by rfl)]
        go_simp
        have hb : Below u1.heap.size u1 (u1.alloc (.cells #[.slice A1 4 c1, .slice (some ⟨g, 12, none⟩) 500 500] 30)) := bl_alloc (bl0 _) _
        have HR := Lib.hid (Rl.two HS.out (HP.out u1 HB.out) 30)
        refine hK.out _ _ (show Below _ _ _ from hb.mono HB.out.size) ?_
        clear hK K
        replace HS := Lib.hid (HS.out.up hb)
        replace HB := Lib.hid (HB.out.trans (hb.mono HB.out.size))
        clear hb
        generalize hgw : u1.alloc (.cells #[.slice A1 4 c1, .slice (some ⟨g, 12, none⟩) 500 500] 30) = u2 at HB HR HS  ⊢
        clear hgw
        generalize u1.heap.size = b1 at HR ⊢
        try simp only [Act.put, List.getElem_toArray, List.getElem_cons_succ, List.getElem_cons_zero, List.setIfInBounds_toArray, List.set_cons_zero, List.set_cons_succ]
        refine reg_fork (rs := [5, 6]) hR (by kernel_rfl) (by simp) ?_
        intro i hi; simp only [List.mem_cons, List.not_mem_nil, or_false] at hi
        rcases hi with rfl | rfl
        · refine ⟨_, rfl, fun K hK => ?_⟩
          try simp only [Act.put, List.getElem_toArray, List.getElem_cons_succ, List.getElem_cons_zero, List.setIfInBounds_toArray, List.set_cons_zero, List.set_cons_succ]
          rw [if_pos (by rfl)]
          go_simp
          refine (Sum_any u2 HR.out (by omega) (by rw [HFL.out, List.length_append, HWL.out, HPL.out]; omega)).mono ?_; rintro e u3 ⟨rfl, hb⟩
          rw [HFL.out, HSS.out]
          refine hK.out _ _ (show Below _ _ _ from hb.mono HB.out.size) ?_
          clear hK K HR HS
          replace HB := Lib.hid (HB.out.trans (hb.mono HB.out.size))
          clear hb
          try simp only [Act.put, List.getElem_toArray, List.getElem_cons_succ, List.getElem_cons_zero, List.setIfInBounds_toArray, List.set_cons_zero, List.set_cons_succ]
          refine reg_step hR 6 (by kernel_rfl) rfl fun K hK => ?_
          try simp only [Act.put, List.getElem_toArray, List.getElem_cons_succ, List.getElem_cons_zero, List.setIfInBounds_toArray, List.set_cons_zero, List.set_cons_succ]
          rw [if_pos (by rfl)]
          refine wp_alloc_z 75 rfl z36 zero36 ?_
          have hb : Below u3.heap.size u3 (u3.alloc (.cells z36.toArray 75)) := bl_alloc (bl0 _) _
          refine hK.out _ _ (show Below _ _ _ from hb.mono HB.out.size) ?_
          clear hK K
          have HH := Lib.hid (Bk.new u3 z36 75)
          have HHT : Hid (T.heap.size ≤ u3.heap.size) := Lib.hid HB.out.size
          replace HB := Lib.hid (HB.out.trans (hb.mono HB.out.size))
          clear hb
          generalize hgw : u3.alloc (.cells z36.toArray 75) = u4 at HB HH  ⊢
          clear hgw
          generalize u3.heap.size = h at HH HHT ⊢
          try simp only [Act.put, List.getElem_toArray, List.getElem_cons_succ, List.getElem_cons_zero, List.setIfInBounds_toArray, List.set_cons_zero, List.set_cons_succ]
          refine reg_step hR 7 (by kernel_rfl) rfl fun K hK => ?_
          try simp only [Act.put, List.getElem_toArray, List.getElem_cons_succ, List.getElem_cons_zero, List.setIfInBounds_toArray, List.set_cons_zero, List.set_cons_succ]
          rw [if_pos (by rfl)]
          refine wp_store_bk 75 _ _ rfl h rfl (cs8 S) z36 rfl HH.out (by rw [HS3.out]; exact info36) (by rw [HS3.out]; exact len_z36) (cs8_all _) ?_
          refine hK.out _ _ (below_setRow (Below.refl _ _) HHT.out _) ?_
          clear hK K
          replace HH := Lib.hid (HH.out.setRow (cs8 S))
          replace HB := Lib.hid (below_setRow HB.out HHT.out (cs8 S).toArray)
          generalize hgw : u4.setRow h (cs8 S).toArray = u5 at HB HH ⊢
          clear hgw
          try simp only [Act.put, List.getElem_toArray, List.getElem_cons_succ, List.getElem_cons_zero, List.setIfInBounds_toArray, List.set_cons_zero, List.set_cons_succ]
          refine reg_done (by kernel_rfl) ?_ _
          refine ⟨rfl, A1, c1, b1, h, ?_, HHT, HH, HB⟩
          simp only [puts, List.foldl_cons, List.foldl_nil, Act.put, List.getElem_toArray, List.getElem_cons_succ, List.getElem_cons_zero, List.setIfInBounds_toArray, List.set_cons_zero, List.set_cons_succ]
        · refine ⟨_, rfl, fun K hK => ?_⟩
          try simp only [Act.put, List.getElem_toArray, List.getElem_cons_succ, List.getElem_cons_zero, List.setIfInBounds_toArray, List.set_cons_zero, List.set_cons_succ]
          rw [if_pos (by rfl)]
          refine wp_alloc_z 75 rfl z36 zero36 ?_
          have hb : Below u2.heap.size u2 (u2.alloc (.cells z36.toArray 75)) := bl_alloc (bl0 _) _
          refine hK.out _ _ (show Below _ _ _ from hb.mono HB.out.size) ?_
          clear hK K
          replace HS := Lib.hid (HS.out.up hb)
          replace HR := Lib.hid (HR.out.up hb)
          have HH := Lib.hid (Bk.new u2 z36 75)
          have HHT : Hid (T.heap.size ≤ u2.heap.size) := Lib.hid HB.out.size
          replace HB := Lib.hid (HB.out.trans (hb.mono HB.out.size))
          clear hb
          generalize hgw : u2.alloc (.cells z36.toArray 75) = u3 at HB HH HS HR ⊢
          clear hgw
          generalize u2.heap.size = h at HH HHT ⊢
          try simp only [Act.put, List.getElem_toArray, List.getElem_cons_succ, List.getElem_cons_zero, List.setIfInBounds_toArray, List.set_cons_zero, List.set_cons_succ]
          refine reg_step hR 5 (by kernel_rfl) rfl fun K hK => ?_
          try simp only [Act.put, List.getElem_toArray, List.getElem_cons_succ, List.getElem_cons_zero, List.setIfInBounds_toArray, List.set_cons_zero, List.set_cons_succ]
          rw [if_pos (by rfl)]
          go_simp
          refine (Sum_any u3 HR.out (by omega) (by rw [HFL.out, List.length_append, HWL.out, HPL.out]; omega)).mono ?_; rintro e u4 ⟨rfl, hb⟩
          rw [HFL.out, HSS.out]
          refine hK.out _ _ (show Below _ _ _ from hb.mono HB.out.size) ?_
          clear hK K HR HS
          replace HH := Lib.hid (HH.out.keep hb)
          replace HB := Lib.hid (HB.out.trans (hb.mono HB.out.size))
          clear hb
          try simp only [Act.put, List.getElem_toArray, List.getElem_cons_succ, List.getElem_cons_zero, List.setIfInBounds_toArray, List.set_cons_zero, List.set_cons_succ]
          refine reg_step hR 7 (by kernel_rfl) rfl fun K hK => ?_
          try simp only [Act.put, List.getElem_toArray, List.getElem_cons_succ, List.getElem_cons_zero, List.setIfInBounds_toArray, List.set_cons_zero, List.set_cons_succ]
          rw [if_pos (by rfl)]
          refine wp_store_bk 75 _ _ rfl h rfl (cs8 S) z36 rfl HH.out (by rw [HS3.out]; exact info36) (by rw [HS3.out]; exact len_z36) (cs8_all _) ?_
          refine hK.out _ _ (below_setRow (Below.refl _ _) HHT.out _) ?_
          clear hK K
          replace HH := Lib.hid (HH.out.setRow (cs8 S))
          replace HB := Lib.hid (below_setRow HB.out HHT.out (cs8 S).toArray)
          generalize hgw : u4.setRow h (cs8 S).toArray = u5 at HB HH ⊢
          clear hgw
          try simp only [Act.put, List.getElem_toArray, List.getElem_cons_succ, List.getElem_cons_zero, List.setIfInBounds_toArray, List.set_cons_zero, List.set_cons_succ]
          refine reg_done (by kernel_rfl) ?_ _
          refine ⟨rfl, A1, c1, b1, h, ?_, HHT, HH, HB⟩
          simp only [puts, List.foldl_cons, List.foldl_nil, Act.put, List.getElem_toArray, List.getElem_cons_succ, List.getElem_cons_zero, List.setIfInBounds_toArray, List.set_cons_zero, List.set_cons_succ]
      · refine ⟨_, rfl, fun K hK => ?_⟩
        try simp only [Act.put, List.getElem_toArray, List.getElem_cons_succ, List.getElem_cons_zero, List.setIfInBounds_toArray, List.set_cons_zero, List.set_cons_succ]
        rw [if_pos (by rfl)]
        refine wp_alloc_z 75 rfl z36 zero36 ?_
        have hb : Below u1.heap.size u1 (u1.alloc (.cells z36.toArray 75)) := bl_alloc (bl0 _) _
        refine hK.out _ _ (show Below _ _ _ from hb.mono HB.out.size) ?_
        clear hK K
        replace HS := Lib.hid (HS.out.up hb)
        have HH := Lib.hid (Bk.new u1 z36 75)
        have HHT : Hid (T.heap.size ≤ u1.heap.size) := Lib.hid HB.out.size
        replace HB := Lib.hid (HB.out.trans (hb.mono HB.out.size))
        clear hb
        generalize hgw : u1.alloc (.cells z36.toArray 75) = u2 at HB HH HS ⊢
        clear hgw
        generalize u1.heap.size = h at HH HHT ⊢
        try simp only [Act.put, List.getElem_toArray, List.getElem_cons_succ, List.getElem_cons_zero, List.setIfInBounds_toArray, List.set_cons_zero, List.set_cons_succ]
        refine reg_step hR 4 (by kernel_rfl) rfl fun K hK => ?_
        try simp only [Act.put, List.getElem_toArray, List.getElem_cons_succ, List.getElem_cons_zero, List.setIfInBounds_toArray, List.set_cons_zero, List.set_cons_succ]
        rw [if_pos (by rfl)]
        go_simp
        have hb : Below u2.heap.size u2 (u2.alloc (.cells #[.slice A1 4 c1, .slice (some ⟨g, 12, none⟩) 500 500] 30)) := bl_alloc (bl0 _) _
        have HR := Lib.hid (Rl.two HS.out (HP.out u2 HB.out) 30)
        refine hK.out _ _ (show Below _ _ _ from hb.mono HB.out.size) ?_
        clear hK K
        replace HS := Lib.hid (HS.out.up hb)
        replace HH := Lib.hid (HH.out.keep hb)
        replace HB := Lib.hid (HB.out.trans (hb.mono HB.out.size))
        clear hb
        generalize hgw : u2.alloc (.cells #[.slice A1 4 c1, .slice (some ⟨g, 12, none⟩) 500 500] 30) = u3 at HB HR HS HH ⊢
        clear hgw
        generalize u2.heap.size = b1 at HR ⊢
        try simp only [Act.put, List.getElem_toArray, List.getElem_cons_succ, List.getElem_cons_zero, List.setIfInBounds_toArray, List.set_cons_zero, List.set_cons_succ]
        refine reg_step hR 5 (by kernel_rfl) rfl fun K hK => ?_
        try simp only [Act.put, List.getElem_toArray, List.getElem_cons_succ, List.getElem_cons_zero, List.setIfInBounds_toArray, List.set_cons_zero, List.set_cons_succ]
        rw [if_pos (by rfl)]
        go_simp
        refine (Sum_any u3 HR.out (by omega) (by rw [HFL.out, List.length_append, HWL.out, HPL.out]; omega)).mono ?_; rintro e u4 ⟨rfl, hb⟩
        rw [HFL.out, HSS.out]
        refine hK.out _ _ (show Below _ _ _ from hb.mono HB.out.size) ?_
        clear hK K HR HS
        replace HH := Lib.hid (HH.out.keep hb)
        replace HB := Lib.hid (HB.out.trans (hb.mono HB.out.size))
        clear hb
        try simp only [Act.put, List.getElem_toArray, List.getElem_cons_succ, List.getElem_cons_zero, List.setIfInBounds_toArray, List.set_cons_zero, List.set_cons_succ]
        refine reg_step hR 7 (by kernel_rfl) rfl fun K hK => ?_
        try simp only [Act.put, List.getElem_toArray, List.getElem_cons_succ, List.getElem_cons_zero, List.setIfInBounds_toArray, List.set_cons_zero, List.set_cons_succ]
        rw [if_pos (by rfl)]
        refine wp_store_bk 75 _ _ rfl h rfl (cs8 S) z36 rfl HH.out (by rw [HS3.out]; exact info36) (by rw [HS3.out]; exact len_z36) (cs8_all _) ?_
        refine hK.out _ _ (below_setRow (Below.refl _ _) HHT.out _) ?_
        clear hK K
        replace HH := Lib.hid (HH.out.setRow (cs8 S))
        replace HB := Lib.hid (below_setRow HB.out HHT.out (cs8 S).toArray)
        generalize hgw : u4.setRow h (cs8 S).toArray = u5 at HB HH ⊢
        clear hgw
        try simp only [Act.put, List.getElem_toArray, List.getElem_cons_succ, List.getElem_cons_zero, List.setIfInBounds_toArray, List.set_cons_zero, List.set_cons_succ]
        refine reg_done (by kernel_rfl) ?_ _
        refine ⟨rfl, A1, c1, b1, h, ?_, HHT, HH, HB⟩
        simp only [puts, List.foldl_cons, List.foldl_nil, Act.put, List.getElem_toArray, List.getElem_cons_succ, List.getElem_cons_zero, List.setIfInBounds_toArray, List.set_cons_zero, List.set_cons_succ]
    · refine ⟨_, rfl, fun K hK => ?_⟩
      try simp only [Act.put, List.getElem_toArray, List.getElem_cons_succ, List.getElem_cons_zero, List.setIfInBounds_toArray, List.set_cons_zero, List.set_cons_succ]
      rw [if_pos (by rfl)]
      refine wp_alloc_z 75 rfl z36 zero36 ?_
      have hb : Below u0.heap.size u0 (u0.alloc (.cells z36.toArray 75)) := bl_alloc (bl0 _) _
      refine hK.out _ _ (show Below _ _ _ from hb.mono HB.out.size) ?_
      clear hK K
      have HH := Lib.hid (Bk.new u0 z36 75)
      have HHT : Hid (T.heap.size ≤ u0.heap.size) := Lib.hid HB.out.size
      replace HB := Lib.hid (HB.out.trans (hb.mono HB.out.size))
      clear hb
      generalize hgw : u0.alloc (.cells z36.toArray 75) = u1 at HB HH  ⊢
      clear hgw
      generalize u0.heap.size = h at HH HHT ⊢
      try simp only [Act.put, List.getElem_toArray, List.getElem_cons_succ, List.getElem_cons_zero, List.setIfInBounds_toArray, List.set_cons_zero, List.set_cons_succ]
      refine reg_step hR 2 (by kernel_rfl) rfl fun K hK => ?_
      try simp only [Act.put, List.getElem_toArray, List.getElem_cons_succ, List.getElem_cons_zero, List.setIfInBounds_toArray, List.set_cons_zero, List.set_cons_succ]
      rw [if_pos (by rfl)]
      go_simp
      refine (OWord_any (A := none) (k := 0) (c := 0) (l := []) (n : Int) 4 u1 (Rd.nil _ _ _ _) (by omega) (by omega) (by omega)).mono ?_; rintro e u2 ⟨v1, rfl, ho1, hb⟩
      rw [show (min (max (4 : Int) 1) 8).toNat = 4 from rfl, List.nil_append, show ((n : Int)).toNat = n by omega, HWD.out] at ho1
      refine hK.out _ _ (show Below _ _ _ from hb.mono HB.out.size) ?_
      clear hK K
      obtain ⟨A1, c1, rfl, hs1⟩ := ho1.sl (n := 4) HWL.out
      have HS := Lib.hid hs1
      replace HH := Lib.hid (HH.out.keep hb)
      replace HB := Lib.hid (HB.out.trans (hb.mono HB.out.size))
      clear ho1 hs1 hb
      try simp only [Act.put, List.getElem_toArray, List.getElem_cons_succ, List.getElem_cons_zero, List.setIfInBounds_toArray, List.set_cons_zero, List.set_cons_succ]
      refine reg_step hR 4 (by kernel_rfl) rfl fun K hK => ?_
      try simp only [Act.put, List.getElem_toArray, List.getElem_cons_succ, List.getElem_cons_zero, List.setIfInBounds_toArray, List.set_cons_zero, List.set_cons_succ]
      rw [if_pos (by rfl)]
      go_simp
      have hb : Below u2.heap.size u2 (u2.alloc (.cells #[.slice A1 4 c1, .slice (some ⟨g, 12, none⟩) 500 500] 30)) := bl_alloc (bl0 _) _
      have HR := Lib.hid (Rl.two HS.out (HP.out u2 HB.out) 30)
      refine hK.out _ _ (show Below _ _ _ from hb.mono HB.out.size) ?_
      clear hK K
      replace HS := Lib.hid (HS.out.up hb)
      replace HH := Lib.hid (HH.out.keep hb)
      replace HB := Lib.hid (HB.out.trans (hb.mono HB.out.size))
      clear hb
      generalize hgw : u2.alloc (.cells #[.slice A1 4 c1, .slice (some ⟨g, 12, none⟩) 500 500] 30) = u3 at HB HR HS HH ⊢
      clear hgw
      generalize u2.heap.size = b1 at HR ⊢
      try simp only [Act.put, List.getElem_toArray, List.getElem_cons_succ, List.getElem_cons_zero, List.setIfInBounds_toArray, List.set_cons_zero, List.set_cons_succ]
      refine reg_step hR 5 (by kernel_rfl) rfl fun K hK => ?_
      try simp only [Act.put, List.getElem_toArray, List.getElem_cons_succ, List.getElem_cons_zero, List.setIfInBounds_toArray, List.set_cons_zero, List.set_cons_succ]
      rw [if_pos (by rfl)]
      go_simp
      refine (Sum_any u3 HR.out (by omega) (by rw [HFL.out, List.length_append, HWL.out, HPL.out]; omega)).mono ?_; rintro e u4 ⟨rfl, hb⟩
      rw [HFL.out, HSS.out]
      refine hK.out _ _ (show Below _ _ _ from hb.mono HB.out.size) ?_
      clear hK K HR HS
      replace HH := Lib.hid (HH.out.keep hb)
      replace HB := Lib.hid (HB.out.trans (hb.mono HB.out.size))
      clear hb
      try simp only [Act.put, List.getElem_toArray, List.getElem_cons_succ, List.getElem_cons_zero, List.setIfInBounds_toArray, List.set_cons_zero, List.set_cons_succ]
      refine reg_step hR 7 (by kernel_rfl) rfl fun K hK => ?_
      try simp only [Act.put, List.getElem_toArray, List.getElem_cons_succ, List.getElem_cons_zero, List.setIfInBounds_toArray, List.set_cons_zero, List.set_cons_succ]
      rw [if_pos (by rfl)]
      refine wp_store_bk 75 _ _ rfl h rfl (cs8 S) z36 rfl HH.out (by rw [HS3.out]; exact info36) (by rw [HS3.out]; exact len_z36) (cs8_all _) ?_
      refine hK.out _ _ (below_setRow (Below.refl _ _) HHT.out _) ?_
      clear hK K
      replace HH := Lib.hid (HH.out.setRow (cs8 S))
      replace HB := Lib.hid (below_setRow HB.out HHT.out (cs8 S).toArray)
      generalize hgw : u4.setRow h (cs8 S).toArray = u5 at HB HH ⊢
      clear hgw
      try simp only [Act.put, List.getElem_toArray, List.getElem_cons_succ, List.getElem_cons_zero, List.setIfInBounds_toArray, List.set_cons_zero, List.set_cons_succ]
      refine reg_done (by kernel_rfl) ?_ _
      refine ⟨rfl, A1, c1, b1, h, ?_, HHT, HH, HB⟩
      simp only [puts, List.foldl_cons, List.foldl_nil, Act.put, List.getElem_toArray, List.getElem_cons_succ, List.getElem_cons_zero, List.setIfInBounds_toArray, List.set_cons_zero, List.set_cons_succ]
  rintro a' w' ⟨A1, c1, b1, h, rfl, HHT, HH, HB⟩
  simp only [puts, List.foldl_cons, List.foldl_nil, Act.put, List.getElem_toArray, List.getElem_cons_succ, List.getElem_cons_zero, List.setIfInBounds_toArray, List.set_cons_zero, List.set_cons_succ]
  go_wp2_with fail
  refine wp_region_still_tail 2 (by kernel_rfl) (by kernel_rfl) ?_
  simp only [List.take_succ_cons, List.take_zero, List.drop_succ_cons, List.drop_zero]
  iterate 2 still_step
  refine wpStill_nil ?_
  change wpList _ _ _ _ _ w'.drew
  have HGw := Lib.hid ((HGT.out.keep HB.out).drew)
  have HRS : Hid (Rd w'.drew w'.drew.heap.size (some ⟨h, 0, none⟩) 32 32 S) := Lib.hid (by
    have h1 := HH.out.lt
    obtain ⟨t, h2⟩ := HH.out
    have := Rd.of_block (w := w'.drew) (l := S) (top := w'.drew.heap.size) h2 h1
    rw [hSl'.out] at this
    exact this)
  refine wpList_copyAt (off := 0) (m := 12) rfl _ _ rfl rfl rfl HRS.out HGw.out (by omega) (by rw [HX12.out]; omega) ?_
  intro w5 hk5 ho5
  rw [HFIN.out] at hk5
  have HG5 := Lib.hid hk5
  have HO5 := Lib.hid ho5
  clear hk5 ho5
  have HB5 : Hid (Below w.heap.size w w5) := Lib.hid (bl_only (HBT.out.trans ((HB.out.mono (by have := HLT.out; have := HGG.out; omega)).drew)) HO5.out (by have := HGG.out; omega))
  have HK5 : Hid (Bk w5 w.heap.size (cs8 Z)) := Lib.hid (by
    obtain ⟨t, h2⟩ := (HK0T.out.keep HB.out).drew
    refine ⟨t, (HO5.out.block _ ?_ ?_).trans h2⟩
    · exact Bk.lt ⟨t, h2⟩
    · intro e; injection e with e; have := HGG.out; omega)
  have HPGl : Hid ((cs8 (S.take 12 ++ pb)).length = 512) := Lib.hid (by rw [cs8_length, List.length_append, List.length_take, hSl'.out, HPL.out]; omega)
  obtain ⟨t5, hg5⟩ := HG5.out
  have HG6 := Lib.hid hg5
  clear hg5 HG5 HRS HGw HH HB HP HGT HBT HK0T
  generalize hY : S.take 12 ++ pb = Y at HG6 HPGl
  have HY := Lib.hid hY
  clear hY
  try simp only [Act.put, List.getElem_toArray, List.getElem_cons_succ, List.getElem_cons_zero, List.setIfInBounds_toArray, List.set_cons_zero, List.set_cons_succ]
  go_wp2_with (first | (refine wpList_load_row rfl 70 _ rfl g rfl t5 _ (0, 0) _ HG6.out Tryd.underlying70 rfl (by rw [List.size_toArray, HPGl.out]; exact info70) ?_) | (refine wpList_store_bk rfl 70 _ _ rfl w.heap.size rfl (cs8 Y) (cs8 Z) rfl HK5.out (by rw [HPGl.out]; exact info70) (by rw [HPGl.out, cs8_length, HZL.out]) (cs8_all _) ?_))
  exact ret_bk rfl w.heap.size _ _ rfl rfl (HK5.out.setRow _) Tryd.underlying70 rfl (by rw [HPGl.out]; exact info70) ⟨by rw [HY.out], bl_setRow HB5.out (Nat.le_refl _) _⟩
end Go.Proofs.YtdfihpnmiiaflaaDoor
end
