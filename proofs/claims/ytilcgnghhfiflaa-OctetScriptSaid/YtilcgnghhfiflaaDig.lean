/- octet: a digest read. -/
import Derived.Test.YtilcgnghhfiflaaRdm
import Derived.Deep.RegionWith
import Derived.Deep.RegionLaw
import Derived.Laws.CopyOwn
namespace Go.Proofs.Ytilcgnghhfiflaa
open Go.RowKit

theorem run_storeVar_row {P : Program} (w : World) (g : Nat) (t ty : TypeId) (cur cs : Array Value) (hg : w.heap[g]? = some (.cells cur t (0, 0))) (hs : cs.size = cur.size)
    (hi : (P.info? ty).map (·.size) = some cs.size) (h1 : ∀ u ∈ cs.toList, u.oneCell' = true) :
    (storeVar ty ⟨g, 0, none⟩ (.agg cs)).run P w = .ok () (w.setRow g cs) := by
  obtain ⟨i, hi', hz⟩ := Option.map_eq_some_iff.1 hi
  have h := run_storeCells_at (P := P) g 0 t cs.toList 0 cur w hg (by simp [hs]) h1
  have hd : cur.toList.drop cs.size = [] := List.drop_eq_nil_of_le (by simp [hs])
  simp [hd] at h
  simp [storeVar, Value.cells, sizeOf, typeInfo, hi', hz, h]

theorem wp_store_row {P : Program} {o : Oper} {a : Act} {w : World} {K : Act → World → Prop} {Q : Exit → Act → World → Prop} (ty : TypeId) (x y : Operand) (ho : o.op = .store ty x y)
    (g : Nat) (hx : a.eval x = .pointer (some ⟨g, 0, none⟩)) (cs : Array Value) (hy : a.eval y = .agg cs) (t : TypeId) (cur : Array Value) (hg : w.heap[g]? = some (.cells cur t (0, 0))) (hs : cs.size = cur.size)
    (hi : (P.info? ty).map (·.size) = some cs.size) (h1 : ∀ u ∈ cs.toList, u.oneCell' = true)
    (h : K (a.put o.dst undef) (w.setRow g cs)) : o.wp P a w K Q := by
  unfold Oper.wp execOp
  simp only [ho, hx, hy, Instr.storeAt, Instr.sureAddr, Sem.run_bind, Sem.run_pure, Result.andThen_ok, run_storeVar_row w g t ty cur cs hg hs hi h1]
  exact h
theorem wpList_store_row {P : Program} {ops : Array Oper} {rest : List Oper} {o : Oper} {a : Act} {w : World} {Q : Exit → Act → World → Prop} (hgd : o.guard = none) (ty : TypeId) (x y : Operand) (ho : o.op = .store ty x y)
    (g : Nat) (hx : a.eval x = .pointer (some ⟨g, 0, none⟩)) (cs : Array Value) (hy : a.eval y = .agg cs) (t : TypeId) (cur : Array Value) (hg : w.heap[g]? = some (.cells cur t (0, 0))) (hs : cs.size = cur.size)
    (hi : (P.info? ty).map (·.size) = some cs.size) (h1 : ∀ u ∈ cs.toList, u.oneCell' = true)
    (h : wpList P ops Q rest (a.put o.dst undef) (w.setRow g cs)) : wpList P ops Q (o :: rest) a w :=
  wpList_plain hgd fun _ hK => wp_store_row ty x y ho g hx cs hy t cur hg hs hi h1 (hK _ _ h)

theorem zero32 : (#[Value.int IntKind.u8 0, Value.int IntKind.u8 0, Value.int IntKind.u8 0, Value.int IntKind.u8 0,
          Value.int IntKind.u8 0, Value.int IntKind.u8 0, Value.int IntKind.u8 0, Value.int IntKind.u8 0,
          Value.int IntKind.u8 0, Value.int IntKind.u8 0, Value.int IntKind.u8 0, Value.int IntKind.u8 0,
          Value.int IntKind.u8 0, Value.int IntKind.u8 0, Value.int IntKind.u8 0, Value.int IntKind.u8 0,
          Value.int IntKind.u8 0, Value.int IntKind.u8 0, Value.int IntKind.u8 0, Value.int IntKind.u8 0,
          Value.int IntKind.u8 0, Value.int IntKind.u8 0, Value.int IntKind.u8 0, Value.int IntKind.u8 0,
          Value.int IntKind.u8 0, Value.int IntKind.u8 0, Value.int IntKind.u8 0, Value.int IntKind.u8 0,
          Value.int IntKind.u8 0, Value.int IntKind.u8 0, Value.int IntKind.u8 0, Value.int IntKind.u8 0] : Array Value) = (cs8 (List.replicate 32 0)).toArray := by rfl

/-- What is copied over 32 noughts. -/
def pad32 (l : List UInt8) : List UInt8 := l ++ List.replicate (32 - l.length) 0

theorem splice_pad (l : List UInt8) : splice (cs8 (List.replicate 32 0)) 0 (cs8 l) = cs8 (pad32 l) := by
  have hr : ∀ n, cs8 (List.replicate n 0) = List.replicate n (B8 0) := fun n => by rw [cs8, List.map_replicate]
  rw [splice, List.take_zero, List.nil_append, Nat.zero_add, cs8_length, pad32, cs8_append, hr, hr, List.drop_replicate]

theorem Rd.src {w : World} {top n c : Nat} {A : Option Addr} {l : List UInt8} (h : Rd w top A n c l) (hn : 0 < (cs8 l).length) : ∃ ad, A = some ad ∧ ∀ j v, (cs8 l)[j]? = some v → w.cell? (ad.add j) = some v := by
  rw [cs8_length, h.len] at hn
  obtain ⟨ad, e, _, hc⟩ := h.2.2 hn
  refine ⟨ad, e, fun j v hv => ?_⟩
  rw [cs8, List.getElem?_map] at hv
  cases hx : l[j]? with
  | none => rw [hx] at hv; cases hv
  | some u =>
    rw [hx] at hv
    rw [hc j u hx]
    simpa using hv
theorem Only.trans_below {w w1 w2 : World} {g B : Nat} (h : Only g w w1) (k : Below B w1 w2) (hB : w.heap.size ≤ B) : Only g w w2 :=
  ⟨k.os.trans h.os, k.tape.trans h.tape, k.output.trans h.output, Nat.le_trans h.size k.size, fun i hi hne => (k.block i (by omega)).trans (h.block i hi hne)⟩
theorem Only.of_below_le {w w1 : World} {g B : Nat} (k : Below B w w1) (hB : w.heap.size ≤ B) : Only g w w1 := (Only.refl g w).trans_below k hB
theorem Rdr.belowB {w w' : World} {g B : Nat} {l : List UInt8} {e : Int} (h : Rdr w g l e) (hb : Below B w w') (hg : g < B) : Rdr w' g l e := by
  obtain ⟨A, n, c, hh, hr⟩ := h
  exact ⟨A, n, c, (hb.block g hg).trans hh, hr.below (hb.mono (by omega))⟩

theorem info33 : (Try.prog.info? 33).map (·.size) = some 32 := by kernel_rfl
theorem size5 : (Try.prog.info? 5).map (·.size) = some 1 := by kernel_rfl

set_option maxHeartbeats 400000 in
theorem RDigest_any {w : World} {g : Nat} {l : List UInt8} {e : Int} (hR : Rdr w g l e) (hl : l.length ≤ 4294967296) :
    Calls Try.prog 15 #[.pointer (some ⟨g, 0, none⟩)] w (Left w g (.agg (cs8 (pad32 (tk 32 l e).1)).toArray) (tk 32 l e).2.1 (tk 32 l e).2.2) := by
  have hlt := hR.lt
  generalize hq : tk 32 l e = q
  have htk : ∀ W : World, Rdr W g l e → Calls Try.prog 34 #[.pointer (some ⟨g, 0, none⟩), .int .u64 32] W (Took W g q) := fun W h => by
    have := take_any h 32 (by decide) (by decide) hl
    rw [show (32 : Int).toNat = 32 from rfl, hq] at this
    exact this
  have hq32 : q.1.length ≤ 32 := by
    rw [← hq, tk]
    split
    · split
      · simp only [List.length_take]; omega
      · simp
    · simp
  clear hq
  obtain ⟨p, l2, e2⟩ := q
  simp only at hq32 ⊢
  have hpl : (cs8 (pad32 p)).length = 32 := by rw [cs8_length, pad32]; simp; omega
  go_enter Try.func15, Try.ntmps15
  go_wp2_with fail
  rw [zero32]
  generalize hz : (cs8 (List.replicate 32 0)).toArray = Z
  have hR2 : Rdr ((w.alloc (.cells Z 33)).alloc (.cells Z 33)).drew g l e := hR.below (((Below.refl _ _).alloc (Nat.le_refl _) _).alloc (by simp) _).drew
  have HZ := Lib.hid hz
  have HT := Lib.hid (htk _ hR2)
  clear hz hR2 htk
  have hZ : ∀ (W : World), Only g ((w.alloc (.cells Z 33)).alloc (.cells Z 33)).drew W → W.heap[w.heap.size + 1]? = some (.cells (cs8 (List.replicate 32 0)).toArray 33 (0, 0)) ∧ W.heap[w.heap.size]? = some (.cells Z 33 (0, 0)) := fun W h => by
    have n1 : some (w.heap.size + 1) ≠ some g := by simp; omega
    have n2 : some w.heap.size ≠ some g := by simp; omega
    refine ⟨(h.block (w.heap.size + 1) (by simp only [World.drew, World.size_alloc]; omega) n1).trans ?_, (h.block w.heap.size (by simp only [World.drew, World.size_alloc]; omega) n2).trans ?_⟩
    · rw [HZ.out]; exact heap_alloc2_new w _ _
    · exact heap_alloc2_old w _ _
  have HZ2 := Lib.hid hZ
  clear hZ
  go_region_law (first | (go_simp; go_at_call 34; refine HT.out.mono ?_; rintro x w1 ⟨A1, n1, k1, rfl, hr1, hR1, hO1⟩) | (refine step_copy_splice rfl (.tmp 4) (.tmp 6) 24 24 rfl 5 Try.underlying24 size5 _ _ _ _ _ _ rfl rfl (w.heap.size + 1) 0 (cs8 (List.replicate 32 0)) 33 (HZ2.out w1 hO1).1 (cs8 p) (by have hpn : p.length = n1 := hr1.len; rw [cs8_length, hpn]; exact (Nat.min_eq_left (by omega)).symm) (fun hp => ⟨rfl, hr1.src hp⟩) (by rw [Nat.zero_add, cs8_length, cs8_length]; simpa using hq32) (cs8_one p) _ _ (Below.refl _ _) (Nat.le_refl _) ?_; intro w2 hw2 hb2))
  rw [splice_pad] at hw2
  have hz2 : Hid (w2.heap[w.heap.size]? = some (.cells Z 33 (0, 0))) := Lib.hid ((hb2.block w.heap.size (by omega)).trans (HZ2.out w1 hO1).2)
  have hsz : (cs8 (pad32 p)).toArray.size = 32 := by simpa using hpl
  have hzs : Z.size = 32 := by rw [← HZ.out]; simp [cs8_length]
  have HS := Lib.hid hsz
  have HZS := Lib.hid hzs
  have HPL := Lib.hid hpl
  clear hsz hzs hpl
  go_wp2_with (first | (refine wpList_load_row rfl 33 _ rfl (w.heap.size + 1) rfl 33 _ _ _ hw2.out Try.underlying33 rfl (by rw [HS.out]; exact info33) ?_) | (refine wpList_store_row rfl 33 _ _ rfl w.heap.size rfl _ rfl 33 _ hz2.out (by rw [HS.out, HZS.out]) (by rw [HS.out]; exact info33) (cs8_one _) ?_))
  refine bodyPost_ret (results_cell_row rfl _ _ w.heap.size 33 (cs8 (pad32 p)).toArray (0, 0) _ rfl (setRow_heap w2 w.heap.size _ _ 33 (0, 0) hz2.out) Try.underlying33 rfl (by rw [HS.out]; exact info33)) rfl ?_
  have hb3 := below_setRow (Below.refl w.heap.size w2) (Nat.le_refl _) (cs8 (pad32 p)).toArray
  refine ⟨rfl, ((hR1.belowB hb2 (by omega)).belowB hb3 hlt), ?_⟩
  have hO0 : Only g w ((w.alloc (.cells Z 33)).alloc (.cells Z 33)).drew := Only.of_below (((Below.refl _ _).alloc (Nat.le_refl _) _).alloc (by simp) _).drew
  exact (((hO0.trans hO1).trans_below hb2 (by omega)).trans_below hb3 (Nat.le_refl _))

set_option maxHeartbeats 400000 in
theorem RDigest_nil (w : World) :
    Calls Try.prog 15 #[.pointer none] w fun x w' => x = .returned (.agg (cs8 (pad32 [])).toArray) ∧ Below w.heap.size w w' := by
  have hpl : (cs8 (pad32 [])).length = 32 := by rfl
  go_enter Try.func15, Try.ntmps15
  go_wp2_with fail
  rw [zero32]
  generalize hz : (cs8 (List.replicate 32 0)).toArray = Z
  have HZ := Lib.hid hz
  have HT := Lib.hid (take_nil 32 ((w.alloc (.cells Z 33)).alloc (.cells Z 33)).drew)
  clear hz
  have hZ : ((w.alloc (.cells Z 33)).alloc (.cells Z 33)).drew.heap[w.heap.size + 1]? = some (.cells (cs8 (List.replicate 32 0)).toArray 33 (0, 0)) ∧ ((w.alloc (.cells Z 33)).alloc (.cells Z 33)).drew.heap[w.heap.size]? = some (.cells Z 33 (0, 0)) := by
    refine ⟨?_, heap_alloc2_old w _ _⟩
    rw [HZ.out]; exact heap_alloc2_new w _ _
  have HZ2 := Lib.hid hZ
  clear hZ
  go_region_law (first | (go_simp; go_at_call 34; refine HT.out.mono ?_; rintro x w1 ⟨rfl, rfl⟩) | (refine step_copy_splice rfl (.tmp 4) (.tmp 6) 24 24 rfl 5 Try.underlying24 size5 _ _ _ _ _ _ rfl rfl (w.heap.size + 1) 0 (cs8 (List.replicate 32 0)) 33 HZ2.out.1 (cs8 []) rfl (fun hp => absurd hp (by decide)) (by decide) (cs8_one []) _ _ (Below.refl _ _) (Nat.le_refl _) ?_; intro w2 hw2 hb2))
  rw [splice_pad] at hw2
  have hz2 : Hid (w2.heap[w.heap.size]? = some (.cells Z 33 (0, 0))) := Lib.hid ((hb2.block w.heap.size (by omega)).trans HZ2.out.2)
  have hsz : (cs8 (pad32 [])).toArray.size = 32 := by rfl
  have hzs : Z.size = 32 := by rw [← HZ.out]; simp [cs8_length]
  have HS := Lib.hid hsz
  have HZS := Lib.hid hzs
  clear hsz hzs hpl
  go_wp2_with (first | (refine wpList_load_row rfl 33 _ rfl (w.heap.size + 1) rfl 33 _ _ _ hw2.out Try.underlying33 rfl (by rw [HS.out]; exact info33) ?_) | (refine wpList_store_row rfl 33 _ _ rfl w.heap.size rfl _ rfl 33 _ hz2.out (by rw [HS.out, HZS.out]) (by rw [HS.out]; exact info33) (cs8_one _) ?_))
  refine bodyPost_ret (results_cell_row rfl _ _ w.heap.size 33 (cs8 (pad32 [])).toArray (0, 0) _ rfl (setRow_heap w2 w.heap.size _ _ 33 (0, 0) hz2.out) Try.underlying33 rfl (by rw [HS.out]; exact info33)) rfl ?_
  have hb3 := below_setRow (Below.refl w.heap.size w2) (Nat.le_refl _) (cs8 (pad32 [])).toArray
  exact ⟨rfl, (((bl_alloc (bl_alloc (bl0 w) _) _).drew.trans (hb2.mono (by omega))).trans hb3)⟩

end Go.Proofs.Ytilcgnghhfiflaa
