package leaf

import (
	"bytes"
	"encoding/binary"
	"math"
	"slices"
	"strings"
	"testing"

	"headwater/api"
)

// draws are numbers that are thrown about, always the same ones.
type draws uint64

func (d *draws) below(n int) int {
	*d = *d*6364136223846793005 + 1442695040888963407
	return int(uint64(*d)>>33) % n
}

// bytesOf are so many bytes, few of them unlike, so that keys often begin alike.
func (d *draws) bytesOf(n int) []byte {
	b := make([]byte, n)
	for i := range b {
		b[i] = []byte{0, 1, 'a', 'b', 0x7f, 0x80, 0xff}[d.below(7)]
	}
	return b
}

// keys are n keys, rising.
func (d *draws) keys(n int) [][]byte {
	var list [][]byte
	for len(list) < n {
		key := d.bytesOf(1 + d.below(1+d.below(16)))
		at, there := slices.BinarySearchFunc(list, key, bytes.Compare)
		if !there {
			list = slices.Insert(list, at, key)
		}
	}
	return list
}

func (d *draws) leaf() api.TreeNode {
	var n api.TreeNode
	for _, key := range d.keys(d.below(9)) {
		n.Items = append(n.Items, api.Item{Key: key, Value: d.bytesOf(d.below(33))})
	}
	return n
}

func (d *draws) branch() api.TreeNode {
	var n api.TreeNode
	for count := 2 + d.below(7); len(n.Kids) < count; {
		if kid := d.below(1 << (1 + d.below(31))); !slices.Contains(n.Kids, kid) {
			n.Kids = append(n.Kids, kid)
		}
	}
	n.Keys = d.keys(len(n.Kids) - 1)
	return n
}

func (d *draws) node() api.TreeNode {
	if d.below(2) == 0 {
		return d.leaf()
	}
	return d.branch()
}

// item is an item whose Key and Value have so many bytes, all like c.
func item(c byte, key, value int) api.Item {
	return api.Item{Key: bytes.Repeat([]byte{c}, key), Value: bytes.Repeat([]byte{c}, value)}
}

// items is a leaf of n items, a to h and on.
func items(n int) api.TreeNode {
	var l api.TreeNode
	for i := range n {
		l.Items = append(l.Items, item('a'+byte(i), 1, i))
	}
	return l
}

// kids is a branch of n Kids and so many Keys, b and on.
func kids(n, keys int) api.TreeNode {
	var b api.TreeNode
	for i := range n {
		b.Kids = append(b.Kids, 10*i+1)
	}
	for i := range keys {
		b.Keys = append(b.Keys, []byte{'b' + byte(i)})
	}
	return b
}

// keyed is a leaf with these keys.
func keyed(keys ...string) api.TreeNode {
	var l api.TreeNode
	for _, key := range keys {
		l.Items = append(l.Items, api.Item{Key: []byte(key)})
	}
	return l
}

// parted is a branch with these keys.
func parted(keys ...string) api.TreeNode {
	b := kids(len(keys)+1, 0)
	for _, key := range keys {
		b.Keys = append(b.Keys, []byte(key))
	}
	return b
}

// pointed is a branch of these Kids.
func pointed(list ...int) api.TreeNode {
	b := kids(0, len(list)-1)
	b.Kids = list
	return b
}

// clone is the same node in memory of its own.
func clone(n api.TreeNode) api.TreeNode {
	var c api.TreeNode
	for _, i := range n.Items {
		c.Items = append(c.Items, api.Item{Key: bytes.Clone(i.Key), Value: bytes.Clone(i.Value)})
	}
	c.Kids = slices.Clone(n.Kids)
	for _, key := range n.Keys {
		c.Keys = append(c.Keys, bytes.Clone(key))
	}
	return c
}

// good are nodes that may be, at each edge.
func good() []api.TreeNode {
	list := []api.TreeNode{
		{}, {Items: []api.Item{}, Kids: []int{}, Keys: [][]byte{}},
		{Items: []api.Item{{Key: []byte{0}}}}, {Items: []api.Item{{Key: []byte{0xff}, Value: []byte{}}}},
		{Items: []api.Item{item('k', 16, 32)}}, {Items: []api.Item{item('k', 1, 32)}}, {Items: []api.Item{item('k', 16, 0)}}, {Items: []api.Item{item('k', 15, 31)}},
		{Items: []api.Item{item(0, 1, 0)}}, {Items: []api.Item{item(0, 16, 32)}},
		keyed("a", "ab", "abc", "b"), keyed("\x00", "\x00\x00", "\x01"), keyed("\x7f", "\x80", "\xff", "\xff\x00", "\xff\xff"),
		keyed("zz", "zza", "zzaaaaaaaaaaaaaa", "zzb"),
		{Items: []api.Item{}, Kids: []int{3, 2}, Keys: [][]byte{[]byte("k")}},
		parted("a", "ab", "abc", "b"), parted("\x00", "\x00\x00", "\x01"), parted("\x7f", "\x80", "\xff", "\xff\x00", "\xff\xff"),
		parted("k"), parted(strings.Repeat("k", 15)), parted(strings.Repeat("k", 16)), parted("\x00"), parted(strings.Repeat("\x00", 16)),
		pointed(0, 1), pointed(1, 0), pointed(0, math.MaxInt32), pointed(math.MaxInt32, math.MaxInt32-1, 0), pointed(7, 6, 5, 4, 3, 2, 1, 0),
		pointed(0x01020304, 0x04030201), pointed(255, 256, 65535, 65536, 1<<24-1, 1<<24),
	}
	for n := 1; n <= 8; n++ {
		list = append(list, items(n))
		full := api.TreeNode{}
		for i := range n {
			full.Items = append(full.Items, item('a'+byte(i), 16, 32))
		}
		list = append(list, full)
	}
	for n := 2; n <= 8; n++ {
		list = append(list, kids(n, n-1))
		full := kids(n, 0)
		for i := range n - 1 {
			full.Kids[i] = math.MaxInt32 - i
			full.Keys = append(full.Keys, bytes.Repeat([]byte{'a' + byte(i)}, 16))
		}
		list = append(list, full)
	}
	return list
}

// bad are nodes that may not be, each for one thing that is wrong, wherever that may stand.
func bad() []api.TreeNode {
	list := []api.TreeNode{
		items(9), items(10), items(255), items(256),
		kids(1, 0), kids(9, 8), kids(10, 9), kids(256, 255), kids(257, 256),
		kids(0, 1), kids(0, 2), kids(1, 1), kids(0, 255),
		{Items: items(1).Items, Keys: kids(0, 1).Keys}, {Items: items(3).Items, Keys: kids(0, 2).Keys},
		{Items: items(1).Items, Kids: []int{1}},
		{Items: []api.Item{{}}}, {Items: []api.Item{{}}, Kids: []int{1, 2}, Keys: kids(0, 1).Keys},
		{Items: items(8).Items, Kids: kids(8, 7).Kids, Keys: kids(8, 7).Keys},
	}
	for n := 2; n <= 8; n++ {
		for _, keys := range []int{0, 1, n - 2, n, n + 1, 255 + n} {
			if keys != n-1 {
				list = append(list, kids(n, keys))
			}
		}
		mixed := kids(n, n-1)
		mixed.Items = items(1).Items
		list = append(list, mixed)
	}
	for n := 1; n <= 8; n++ {
		for i := range n {
			for _, wrong := range []api.Item{{}, {Key: []byte{}, Value: []byte("v")}, item('a'+byte(i), 17, 3), item('a'+byte(i), 256+1, 3), item('a'+byte(i), 1, 33), item('a'+byte(i), 3, 256)} {
				l := items(n)
				l.Items[i] = wrong
				list = append(list, l)
			}
		}
		if n > 1 {
			list = append(list, unsorted(n)...)
		}
	}
	return list
}

// unsorted are leaves of n items, and branches of n Keys or Kids, of which one stands wrong.
func unsorted(n int) []api.TreeNode {
	var list []api.TreeNode
	for i := 1; i < n; i++ {
		twice, turned := items(n), items(n)
		twice.Items[i].Key = []byte{'a' + byte(i-1)}
		turned.Items[i-1], turned.Items[i] = turned.Items[i], turned.Items[i-1]
		list = append(list, twice, turned)
	}
	for i := range n - 1 {
		for _, wrong := range [][]byte{nil, {}, bytes.Repeat([]byte{'b' + byte(i)}, 17), bytes.Repeat([]byte{'b' + byte(i)}, 257)} {
			b := kids(n, n-1)
			b.Keys[i] = wrong
			list = append(list, b)
		}
	}
	for i := 1; i < n-1; i++ {
		twice, turned := kids(n, n-1), kids(n, n-1)
		twice.Keys[i] = []byte{'b' + byte(i-1)}
		turned.Keys[i-1], turned.Keys[i] = turned.Keys[i], turned.Keys[i-1]
		list = append(list, twice, turned)
	}
	for i := range n {
		for _, wrong := range []int{-1, math.MinInt32, math.MinInt, 1 << 31, 1<<31 + 1, 1<<32 + 500, math.MaxInt} {
			b := kids(n, n-1)
			b.Kids[i] = wrong
			list = append(list, b)
		}
		for j := range i {
			b := kids(n, n-1)
			b.Kids[i] = b.Kids[j]
			list = append(list, b)
		}
	}
	return append(list, disordered()...)
}

// disordered are nodes whose keys stand in another order than that of bytes.
func disordered() []api.TreeNode {
	var list []api.TreeNode
	for _, keys := range [][]string{{"ab", "a"}, {"b", "ab"}, {"\x80", "\x7f"}, {"\xff", "\x00"}, {"a\x80", "a\x7f"}, {"a", "b", "ba", "b"}, {"\x00\x00", "\x00"}, {"b", "c", "a"}} {
		list = append(list, keyed(keys...), parted(keys...))
	}
	return list
}

// spelled is a node's bytes by the chapter's words: each length is of one byte, as all are below 128.
func spelled(n api.TreeNode) []byte {
	block := func(p []byte) []byte { return append([]byte{byte(len(p))}, p...) }
	if len(n.Kids) == 0 {
		b := []byte{0, byte(len(n.Items))}
		for _, i := range n.Items {
			b = append(append(b, block(i.Key)...), block(i.Value)...)
		}
		return b
	}
	b := []byte{1, byte(len(n.Kids))}
	for _, kid := range n.Kids {
		b = binary.LittleEndian.AppendUint32(b, uint32(kid))
	}
	for _, key := range n.Keys {
		b = append(b, block(key)...)
	}
	return b
}

// paper reads bytes by the chapter's words, one by one; it is out of them, or in what is wrong, where bad is set.
type paper struct {
	b   []byte
	bad bool
}

func (p *paper) take(n int) []byte {
	if p.bad || n > len(p.b) {
		p.bad = true
		return nil
	}
	head := p.b[:n]
	p.b = p.b[n:]
	return head
}

func (p *paper) one(most int) int {
	if b := p.take(1); len(b) == 1 && int(b[0]) <= most {
		return int(b[0])
	}
	p.bad = true
	return 0
}

func (p *paper) key(keys [][]byte) []byte {
	key := bytes.Clone(p.take(p.one(16)))
	if len(key) == 0 || len(keys) > 0 && bytes.Compare(keys[len(keys)-1], key) != -1 {
		p.bad = true
	}
	return key
}

// readPaper is the node whose bytes b is by the chapter's words, with noughts behind, and whether there is one.
func readPaper(b []byte) (api.TreeNode, bool) {
	p := &paper{b: b}
	var n api.TreeNode
	var keys [][]byte
	branch, count := p.one(1) == 1, p.one(8)
	if !branch {
		for range count {
			keys = append(keys, p.key(keys))
			n.Items = append(n.Items, api.Item{Key: keys[len(keys)-1], Value: bytes.Clone(p.take(p.one(32)))})
		}
	} else {
		p.bad = p.bad || count < 2
		for range count {
			kid := p.take(4)
			if p.bad || kid[3] > 127 || slices.Contains(n.Kids, int(binary.LittleEndian.Uint32(kid))) {
				return api.TreeNode{}, false
			}
			n.Kids = append(n.Kids, int(binary.LittleEndian.Uint32(kid)))
		}
		for range max(count-1, 0) {
			n.Keys = append(n.Keys, p.key(n.Keys))
		}
	}
	if p.bad || len(bytes.Trim(p.b, "\x00")) > 0 {
		return api.TreeNode{}, false
	}
	return n, true
}

// same answers if both nodes have the same, held against each other here alone.
func same(a, b api.TreeNode) bool {
	return slices.EqualFunc(a.Items, b.Items, func(a, b api.Item) bool {
		return string(a.Key) == string(b.Key) && string(a.Value) == string(b.Value)
	}) && slices.Equal(a.Kids, b.Kids) && slices.EqualFunc(a.Keys, b.Keys, func(a, b []byte) bool { return string(a) == string(b) })
}

// reads fails unless Read of b is n.
func reads(t *testing.T, b []byte, n api.TreeNode) {
	t.Helper()
	if got, err := Read(b); err != api.OK || !same(got, n) {
		t.Fatalf("Read of %x: %v, %d, want %v", b, got, err, n)
	}
}

// fails fails unless Read of b is ErrBad, and nothing.
func fails(t *testing.T, b []byte) {
	t.Helper()
	if got, err := Read(b); err != api.ErrBad || got.Items != nil || got.Kids != nil || got.Keys != nil {
		t.Fatalf("Read of %x: %v, %d, want ErrBad", b, got, err)
	}
}

// readsAsTold fails unless Read of b is what the chapter's words ask for.
func readsAsTold(t *testing.T, b []byte) bool {
	t.Helper()
	n, may := readPaper(b)
	if may {
		reads(t, b, n)
	} else {
		fails(t, b)
	}
	return may
}

func TestExamples(t *testing.T) {
	b, err := Bytes(api.TreeNode{Items: []api.Item{{Key: []byte("a"), Value: []byte("xy")}}})
	if err != api.OK || !bytes.Equal(b, []byte{0, 1, 1, 0x61, 2, 0x78, 0x79}) {
		t.Errorf("Bytes of a leaf of (a, xy): %x, %d", b, err)
	}
	n := api.TreeNode{Kids: []int{1, 2, 3}, Keys: [][]byte{[]byte("c"), []byte("f")}}
	for i, key := range []string{"b", "c", "e", "z"} {
		if got, want := Kid(n, []byte(key)), []int{0, 1, 1, 2}[i]; got != want {
			t.Errorf("Kid of %s: %d, want %d", key, got, want)
		}
	}
}

func TestP111Check(t *testing.T) {
	for _, n := range good() {
		if err := Check(n); err != api.OK {
			t.Errorf("Check of %v: %d", n, err)
		}
	}
	for _, n := range bad() {
		if err := Check(n); err != api.ErrArg {
			t.Errorf("Check of %v: %d", n, err)
		}
	}
	d := draws(1)
	for range 1000 {
		if n := d.node(); Check(n) != api.OK {
			t.Errorf("Check of %v: %d", n, Check(n))
		}
	}
}

func TestP111Bytes(t *testing.T) {
	most := 0
	for _, n := range good() {
		b, err := Bytes(n)
		if err != api.OK || !bytes.Equal(b, spelled(n)) {
			t.Errorf("Bytes of %v: %x, %d", n, b, err)
		}
		most = max(most, len(b))
	}
	if most != 402 || most > api.Body {
		t.Errorf("the longest node has %d bytes", most)
	}
	for _, n := range bad() {
		if b, err := Bytes(n); err != api.ErrArg || b != nil {
			t.Errorf("Bytes of %v: %x, %d", n, b, err)
		}
	}
}

func TestP111BytesWrittenOut(t *testing.T) {
	for _, x := range []struct {
		n    api.TreeNode
		want string
	}{
		{api.TreeNode{}, "\x00\x00"},
		{keyed("\x00"), "\x00\x01\x01\x00\x00"},
		{api.TreeNode{Items: []api.Item{{Key: []byte("a")}, {Key: []byte("bc"), Value: []byte("v")}}}, "\x00\x02\x01a\x00\x02bc\x01v"},
		{api.TreeNode{Kids: []int{0x01020304, 0}, Keys: [][]byte{[]byte("k")}}, "\x01\x02\x04\x03\x02\x01\x00\x00\x00\x00\x01k"},
		{api.TreeNode{Kids: []int{1, math.MaxInt32, 300}, Keys: [][]byte{[]byte("k"), []byte("ka")}}, "\x01\x03\x01\x00\x00\x00\xff\xff\xff\x7f\x2c\x01\x00\x00\x01k\x02ka"},
		{api.TreeNode{Items: []api.Item{item('k', 16, 32)}}, "\x00\x01\x10" + strings.Repeat("k", 16) + "\x20" + strings.Repeat("k", 32)},
	} {
		if b, err := Bytes(x.n); err != api.OK || string(b) != x.want {
			t.Errorf("Bytes of %v: %x, %d, want %x", x.n, b, err, x.want)
		}
		reads(t, []byte(x.want), x.n)
	}
}

func TestP111ReadWithNoughtsBehind(t *testing.T) {
	for _, n := range good() {
		for _, noughts := range []int{0, 1, 2, 98, api.Body - len(spelled(n)), 1000} {
			b := append(spelled(n), make([]byte, noughts)...)
			reads(t, b, n)
			for at := len(b) - noughts; at < len(b); at++ {
				if noughts > 200 && at%37 != 0 && at < len(b)-3 {
					continue
				}
				for _, c := range []byte{1, 0x80, 0xff} {
					b[at] = c
					fails(t, b)
				}
				b[at] = 0
			}
		}
	}
}

func TestP111ReadOfNothing(t *testing.T) {
	fails(t, nil)
	fails(t, []byte{})
	fails(t, []byte{0})
	fails(t, []byte{1})
	reads(t, []byte{0, 0}, api.TreeNode{})
	reads(t, make([]byte, api.Body), api.TreeNode{})
	for kind := 1; kind < 256; kind++ {
		fails(t, []byte{byte(kind), 0})
		fails(t, append([]byte{byte(kind)}, make([]byte, api.Body-1)...))
	}
}

func TestP111ReadOfAnotherFirstByte(t *testing.T) {
	for _, n := range good() {
		b := spelled(n)
		for kind := range 256 {
			b[0] = byte(kind)
			if kind > 1 {
				fails(t, b)
			}
			readsAsTold(t, b)
		}
	}
}

func TestP111ReadOfAnotherCount(t *testing.T) {
	for _, n := range good() {
		b := append(spelled(n), make([]byte, 20)...)
		for count := range 256 {
			b[1] = byte(count)
			readsAsTold(t, b)
		}
	}
}

// TestP111ReadOfWhatMayNotBe: bytes that are put like a node's, of what is none.
func TestP111ReadOfWhatMayNotBe(t *testing.T) {
	for _, n := range bad() {
		fits := len(n.Items) < 256 && len(n.Kids) < 256 && (len(n.Items) == 0 || len(n.Kids)+len(n.Keys) == 0)
		for _, kid := range n.Kids {
			fits = fits && uint64(kid) < 1<<32
		}
		if len(n.Kids) > 0 && len(n.Keys) != len(n.Kids)-1 || len(n.Kids) == 0 && len(n.Keys) > 0 || !fits {
			continue
		}
		b := spelled(n)
		if len(b) == 2 {
			t.Fatalf("%v is put like a leaf of nothing", n)
		}
		fails(t, b)
		fails(t, append(b, make([]byte, 30)...))
	}
}

func TestP111ReadOfBytesThatEnd(t *testing.T) {
	for _, n := range good() {
		b := spelled(n)
		for end := range b {
			fails(t, b[:end])
			fails(t, b[:end:end])
		}
	}
}

// TestP111ReadOfLongNumbers: a block's length in more bytes than it needs is not its length.
func TestP111ReadOfLongNumbers(t *testing.T) {
	for _, b := range []string{
		"\x00\x01\x80\x01a\x00", "\x00\x01\x01a\x80\x00", "\x00\x01\x01a\x80\x02xy", "\x00\x01\x01a\xc0\x00\x02xy", "\x00\x01\xff\x00\x00\x00\x00\x00\x00\x00\x01a\x00",
		"\x01\x02\x00\x00\x00\x00\x01\x00\x00\x00\x80\x01k", "\x01\x02\x00\x00\x00\x00\x01\x00\x00\x00\xff\x00\x00\x00\x00\x00\x00\x00\x01k",
		"\x00\x01\xff\xff\xff\xff\xff\xff\xff\xff\xffa\x00", "\x00\x01\x01a\xff\x80\x00\x00\x00\x00\x00\x00\x00", "\x00\x01\x01a\xff\x7f\xff\xff\xff\xff\xff\xff\xff",
	} {
		fails(t, []byte(b))
		fails(t, append([]byte(b), make([]byte, 100)...))
	}
	for _, size := range []int{127, 128, 129, 200} {
		long := bytes.Repeat([]byte("k"), size)
		fails(t, slices.Concat([]byte("\x00\x01\x01a\x80"), []byte{byte(size)}, long))
		fails(t, slices.Concat([]byte("\x00\x01\x80"), []byte{byte(size)}, long, []byte{0}))
	}
}

func TestP111ReadOfAnyByteChanged(t *testing.T) {
	for _, n := range good() {
		b := append(spelled(n), 0, 0, 0)
		for at := range b {
			was := b[at]
			for _, c := range []byte{0, 1, 2, 3, 7, 8, 9, 15, 16, 17, 31, 32, 33, 0x7f, 0x80, 0xff, was ^ 1, was ^ 0x80, was + 1, was - 1} {
				b[at] = c
				readsAsTold(t, b)
			}
			b[at] = was
		}
	}
}

func TestP111Leaf(t *testing.T) {
	for _, n := range append(good(), bad()...) {
		if Leaf(n) != (len(n.Kids) == 0) {
			t.Errorf("Leaf of %v: %v", n, Leaf(n))
		}
	}
	for _, x := range []struct {
		n    api.TreeNode
		want bool
	}{{api.TreeNode{}, true}, {items(3), true}, {items(9), true}, {kids(0, 2), true}, {api.TreeNode{Kids: []int{}}, true}, {kids(2, 1), false}, {kids(1, 0), false}, {api.TreeNode{Items: items(1).Items, Kids: []int{-1}}, false}} {
		if Leaf(x.n) != x.want {
			t.Errorf("Leaf of %v: not %v", x.n, x.want)
		}
	}
}

func TestP111KeyAndValue(t *testing.T) {
	for _, c := range []byte{0, 'a', 0xff} {
		for _, n := range []int{0, 1, 2, 15, 16, 17, 31, 32, 33, 255, 256, 257, 272, 1 << 16, 1<<16 + 1, 1<<16 + 16} {
			b := bytes.Repeat([]byte{c}, n)
			if Key(b) != (n >= 1 && n <= 16) {
				t.Errorf("Key of %d bytes: %v", n, Key(b))
			}
			if Value(b) != (n <= 32) {
				t.Errorf("Value of %d bytes: %v", n, Value(b))
			}
		}
	}
	if Key(nil) || !Value(nil) {
		t.Error("Key or Value of nothing")
	}
}

func TestP111Same(t *testing.T) {
	d := draws(2)
	list := append(good(), bad()...)
	for range 200 {
		list = append(list, d.node())
	}
	for i, a := range list {
		if !Same(a, clone(a)) {
			t.Errorf("Same of %v and itself", a)
		}
		for _, b := range list[i:] {
			if want := same(a, b); Same(a, b) != want || Same(b, a) != want {
				t.Errorf("Same of %v and %v: not %v", a, b, want)
			}
		}
	}
	empty := api.TreeNode{Items: []api.Item{}, Kids: []int{}, Keys: [][]byte{}}
	if !Same(api.TreeNode{}, empty) || !Same(empty, api.TreeNode{}) {
		t.Error("Same of nil lists and empty ones")
	}
	if !Same(keyed("a"), api.TreeNode{Items: []api.Item{{Key: []byte("a"), Value: []byte{}}}}) {
		t.Error("Same of a nil Value and an empty one")
	}
}

// TestP111SameOfChanged: whatever is another one, the node is.
func TestP111SameOfChanged(t *testing.T) {
	a := api.TreeNode{Items: items(3).Items, Kids: []int{1, 2, 3}, Keys: [][]byte{[]byte("b"), []byte("c"), []byte("d")}}
	for name, change := range map[string]func(*api.TreeNode){
		"an item less":     func(n *api.TreeNode) { n.Items = n.Items[:2] },
		"no items":         func(n *api.TreeNode) { n.Items = nil },
		"a first key":      func(n *api.TreeNode) { n.Items[0].Key = []byte("b") },
		"a last key":       func(n *api.TreeNode) { n.Items[2].Key = []byte("cc") },
		"a value":          func(n *api.TreeNode) { n.Items[1].Value = []byte("c") },
		"a longer value":   func(n *api.TreeNode) { n.Items[0].Value = []byte{0} },
		"turned items":     func(n *api.TreeNode) { slices.Reverse(n.Items) },
		"key and value":    func(n *api.TreeNode) { n.Items[0].Key, n.Items[0].Value = n.Items[0].Value, n.Items[0].Key },
		"a kid less":       func(n *api.TreeNode) { n.Kids = n.Kids[:2] },
		"another kid":      func(n *api.TreeNode) { n.Kids[0] = 7 },
		"turned kids":      func(n *api.TreeNode) { slices.Reverse(n.Kids) },
		"no kids":          func(n *api.TreeNode) { n.Kids = nil },
		"a branch's key":   func(n *api.TreeNode) { n.Keys[2] = []byte("e") },
		"a key less":       func(n *api.TreeNode) { n.Keys = n.Keys[:2] },
		"a key more":       func(n *api.TreeNode) { n.Keys = append(n.Keys, nil) },
		"no keys":          func(n *api.TreeNode) { n.Keys = nil },
		"an empty key":     func(n *api.TreeNode) { n.Keys[0] = nil },
		"an item of none":  func(n *api.TreeNode) { n.Items = append(n.Items, api.Item{}) },
		"a kid of nothing": func(n *api.TreeNode) { n.Kids = append(n.Kids, 0) },
	} {
		b := clone(a)
		change(&b)
		if Same(a, b) || Same(b, a) {
			t.Errorf("%s: Same", name)
		}
	}
}

// asked are keys that are looked for in a node: its own, those about them, the shortest and longest, such that may not be.
func asked(n api.TreeNode) [][]byte {
	list := [][]byte{nil, {}, {0}, {0xff}, bytes.Repeat([]byte{0}, 17), bytes.Repeat([]byte{0xff}, 16), bytes.Repeat([]byte{0xff}, 300), []byte("a"), []byte("b")}
	own := slices.Clone(n.Keys)
	for _, i := range n.Items {
		own = append(own, i.Key)
	}
	for _, key := range own {
		list = append(list, key, append(bytes.Clone(key), 0), append(bytes.Clone(key), 0xff))
		if len(key) == 0 {
			continue
		}
		low, high := bytes.Clone(key), bytes.Clone(key)
		low[len(low)-1]--
		high[len(high)-1]++
		list = append(list, key[:len(key)-1], low, high)
	}
	return list
}

func TestP112Find(t *testing.T) {
	d := draws(3)
	list := append(good(), bad()...)
	for range 500 {
		list = append(list, d.node())
	}
	for _, n := range list {
		_, may := readPaper(spelled(n))
		may = may && len(n.Kids)+len(n.Keys) == 0
		for _, key := range asked(n) {
			want, there := 0, false
			for may && want < len(n.Items) && bytes.Compare(n.Items[want].Key, key) < 0 {
				want++
			}
			there = may && want < len(n.Items) && bytes.Equal(n.Items[want].Key, key)
			if at, ok := Find(n, key); at != want || ok != there {
				t.Fatalf("Find of %x in %v: %d, %v, want %d, %v", key, n, at, ok, want, there)
			}
		}
	}
}

func TestP112FindWrittenOut(t *testing.T) {
	for _, x := range []struct {
		n     api.TreeNode
		key   string
		at    int
		there bool
	}{
		{api.TreeNode{}, "a", 0, false}, {api.TreeNode{}, "", 0, false},
		{keyed("b", "d"), "", 0, false}, {keyed("b", "d"), "a", 0, false}, {keyed("b", "d"), "b", 0, true}, {keyed("b", "d"), "b\x00", 1, false},
		{keyed("b", "d"), "c", 1, false}, {keyed("b", "d"), "d", 1, true}, {keyed("b", "d"), "e", 2, false}, {keyed("b", "d"), strings.Repeat("e", 17), 2, false},
		{keyed("\x7f", "\x80"), "\x80", 1, true}, {keyed("\x7f", "\x80"), "\xff", 2, false},
		{items(8), "h", 7, true}, {items(8), "i", 8, false},
		{parted("b", "d"), "b", 0, false}, {parted("b", "d"), "z", 0, false},
		{items(9), "c", 0, false}, {keyed("b", "a"), "z", 0, false}, {kids(0, 2), "z", 0, false}, {keyed("b", ""), "b", 0, false},
	} {
		if at, there := Find(x.n, []byte(x.key)); at != x.at || there != x.there {
			t.Errorf("Find of %q in %v: %d, %v, want %d, %v", x.key, x.n, at, there, x.at, x.there)
		}
	}
}

func TestP112Kid(t *testing.T) {
	d := draws(4)
	var branches []api.TreeNode
	for _, n := range good() {
		if len(n.Kids) > 0 {
			branches = append(branches, n)
		} else {
			noKids(t, n)
		}
	}
	for range 500 {
		branches = append(branches, d.branch())
		noKids(t, d.leaf())
	}
	for _, n := range bad() {
		noKids(t, n)
	}
	for _, n := range branches {
		for _, key := range asked(n) {
			want := 0
			for _, k := range n.Keys {
				if bytes.Compare(k, key) <= 0 {
					want++
				}
			}
			if at := Kid(n, key); at != want {
				t.Fatalf("Kid of %x in %v: %d, want %d", key, n, at, want)
			}
		}
	}
}

// noKids fails unless Kid is -1 of whatever key.
func noKids(t *testing.T, n api.TreeNode) {
	t.Helper()
	for _, key := range asked(n) {
		if at := Kid(n, key); at != -1 {
			t.Fatalf("Kid of %x in %v: %d", key, n, at)
		}
	}
}

func TestP112KidWrittenOut(t *testing.T) {
	for _, x := range []struct {
		n    api.TreeNode
		key  string
		want int
	}{
		{parted("c", "f"), "", 0}, {parted("c", "f"), "bz", 0}, {parted("c", "f"), "c", 1}, {parted("c", "f"), "c\x00", 1}, {parted("c", "f"), "ez", 1},
		{parted("c", "f"), "f", 2}, {parted("c", "f"), "z", 2}, {parted("c", "f"), strings.Repeat("c", 17), 1}, {parted("c"), "b", 0}, {parted("c"), "c", 1},
		{kids(8, 7), "a", 0}, {kids(8, 7), "h", 7}, {kids(8, 7), "i", 7},
		{api.TreeNode{}, "a", -1}, {items(3), "b", -1}, {kids(1, 0), "a", -1}, {kids(9, 8), "c", -1}, {kids(2, 0), "a", -1}, {parted("d", "c"), "a", -1}, {kids(0, 2), "c", -1},
	} {
		if at := Kid(x.n, []byte(x.key)); at != x.want {
			t.Errorf("Kid of %q in %v: %d, want %d", x.key, x.n, at, x.want)
		}
	}
}

func TestP112Compare(t *testing.T) {
	list := [][]byte{nil, {}}
	for _, a := range []byte{0, 1, 'a', 0x7f, 0x80, 0xff} {
		list = append(list, []byte{a}, bytes.Repeat([]byte{a}, 16), bytes.Repeat([]byte{a}, 17), bytes.Repeat([]byte{a}, 1000))
		for _, b := range []byte{0, 1, 'a', 0x7f, 0x80, 0xff} {
			list = append(list, []byte{a, b}, []byte{a, b, a}, []byte{a, 'a', b})
		}
	}
	for _, a := range list {
		for _, b := range list {
			if got, want := Compare(a, b), bytes.Compare(a, b); got != want {
				t.Errorf("Compare of %x and %x: %d, want %d", a, b, got, want)
			}
		}
	}
}

func TestP113ReadOfBytes(t *testing.T) {
	d := draws(5)
	for range 3000 {
		n := d.node()
		b, err := Bytes(n)
		if err != api.OK {
			t.Fatalf("Bytes of %v: %d", n, err)
		}
		got, err := Read(append(b, make([]byte, d.below(60))...))
		if err != api.OK || !same(got, n) || !Same(got, n) {
			t.Fatalf("Read of %x: %v, %d, want %v", b, got, err, n)
		}
	}
}

// TestP113NoOtherBytes: of all short bytes only those of nodes are read, and each as the one that has them.
func TestP113NoOtherBytes(t *testing.T) {
	some := []byte{0, 1, 2, 3, 'a', 0x80}
	read := 0
	for size := range 8 {
		b := make([]byte, size)
		for all := range power(len(some), size) {
			for i := range b {
				b[i], all = some[all%len(some)], all/len(some)
			}
			if !readsAsTold(t, b) {
				continue
			}
			read++
			n, _ := Read(b)
			put, err := Bytes(n)
			if err != api.OK || len(put) > len(b) || !bytes.Equal(append(put, make([]byte, len(b)-len(put))...), b) {
				t.Fatalf("%x is read, but %x put", b, put)
			}
		}
	}
	if read < 100 {
		t.Errorf("only %d were read", read)
	}
}

func power(n, e int) int {
	p := 1
	for range e {
		p *= n
	}
	return p
}

// TestP113NoOtherBytesOfBranches: bytes of branches, some changed.
func TestP113NoOtherBytesOfBranches(t *testing.T) {
	d := draws(6)
	read := 0
	for range 100000 {
		b := spelled(pointed([]int{d.below(3), d.below(3), d.below(300)}[:2+d.below(2)]...))
		for range d.below(3) {
			b[d.below(len(b))] = []byte{0, 1, 2, 3, 'a', 'b', 'c', 0x7f, 0x80, 0xff}[d.below(10)]
		}
		if readsAsTold(t, b) {
			read++
		}
	}
	if read < 1000 {
		t.Errorf("only %d were read", read)
	}
}

func TestWayNodesAreToldApart(t *testing.T) {
	for _, n := range good() {
		_, branch := told(n).(branchNode)
		_, leaf := told(n).(leafNode)
		if branch != (len(n.Kids) > 0) || leaf == branch {
			t.Errorf("%v is told to be a leaf %v, a branch %v", n, leaf, branch)
		}
	}
}

// spare is b with room behind it that is filled.
func spare(b []byte) []byte {
	long := append(slices.Clone(b), bytes.Repeat([]byte{0xee}, 64)...)
	return long[:len(b)]
}

// spareNode is the node with room behind each of its lists that is filled.
func spareNode(n api.TreeNode) api.TreeNode {
	c := clone(n)
	for i := range c.Items {
		c.Items[i] = api.Item{Key: spare(c.Items[i].Key), Value: spare(c.Items[i].Value)}
	}
	for i := range c.Keys {
		c.Keys[i] = spare(c.Keys[i])
	}
	strange := []byte{0xee}
	c.Items = append(c.Items, api.Item{Key: strange, Value: strange})[:len(c.Items)]
	c.Kids = append(c.Kids, 0xee)[:len(c.Kids)]
	c.Keys = append(c.Keys, strange)[:len(c.Keys)]
	return c
}

// spareFilled answers if the room behind each list of spareNode's is as it was.
func spareFilled(n api.TreeNode) bool {
	room := n.Items[:len(n.Items)+1][len(n.Items)]
	filled := string(room.Key) == "\xee" && string(room.Value) == "\xee" && string(n.Keys[:len(n.Keys)+1][len(n.Keys)]) == "\xee" && n.Kids[:len(n.Kids)+1][len(n.Kids)] == 0xee
	lists := slices.Clone(n.Keys)
	for _, i := range n.Items {
		lists = append(lists, i.Key, i.Value)
	}
	for _, b := range lists {
		filled = filled && bytes.Equal(b[len(b):len(b)+64], bytes.Repeat([]byte{0xee}, 64))
	}
	return filled
}

func TestRuleHandedInIsNotChanged(t *testing.T) {
	for _, n := range append(good(), bad()...) {
		in, key := spareNode(n), spare([]byte("ccc"))
		Check(in)
		Bytes(in)
		Leaf(in)
		Find(in, key)
		Kid(in, key)
		Same(in, in)
		Compare(key, key)
		Key(key)
		Value(key)
		if !same(in, n) || !spareFilled(in) || !bytes.Equal(key[:67], append([]byte("ccc"), bytes.Repeat([]byte{0xee}, 64)...)) {
			t.Fatalf("%v is changed", n)
		}
	}
	for _, n := range good() {
		b := append(spelled(n), 0, 0)
		in := spare(b)
		Read(in)
		if !bytes.Equal(in[:len(b)+64], append(b, bytes.Repeat([]byte{0xee}, 64)...)) {
			t.Fatalf("the bytes of %v are changed", n)
		}
	}
}

func TestRuleSpareRoomIsNotRead(t *testing.T) {
	for _, n := range append(good(), bad()...) {
		in := spareNode(n)
		b, err := Bytes(n)
		if got, gotErr := Bytes(in); !bytes.Equal(got, b) || gotErr != err || Check(in) != err {
			t.Fatalf("Bytes of %v: the spare room counts", n)
		}
		for _, key := range asked(n) {
			at, there := Find(n, key)
			if gotAt, gotThere := Find(in, spare(key)); gotAt != at || gotThere != there || Kid(in, spare(key)) != Kid(n, key) {
				t.Fatalf("Find or Kid of %x in %v: the spare room counts", key, n)
			}
		}
	}
	for _, n := range good() {
		reads(t, spare(spelled(n)), n)
	}
}

func TestRuleAnswersAreNew(t *testing.T) {
	for _, n := range good() {
		in := clone(n)
		b, _ := Bytes(in)
		other, _ := Bytes(in)
		read := bytes.Clone(b)
		got, _ := Read(read)
		again, _ := Read(read)
		wipe(in)
		clear(other[:cap(other)])
		clear(read)
		if !bytes.Equal(b, spelled(n)) {
			t.Fatalf("Bytes of %v share memory", n)
		}
		wipe(again)
		if !same(got, n) {
			t.Fatalf("Read keeps the bytes of %v, or shares memory with another answer", n)
		}
	}
}

// TestRuleListsOfOneAnswerAreApart: what is written into one list of an answer, and behind it, is in no other one.
func TestRuleListsOfOneAnswerAreApart(t *testing.T) {
	for _, n := range good() {
		got, _ := Read(spelled(n))
		lists := slices.Clone(got.Keys)
		for _, i := range got.Items {
			lists = append(lists, i.Key, i.Value)
		}
		for at, b := range lists {
			were := make([][]byte, len(lists))
			for i := range lists {
				were[i] = bytes.Clone(lists[i])
			}
			full := b[:cap(b)]
			for i := range full {
				full[i] ^= 0xff
			}
			for i := range lists {
				if i != at && !bytes.Equal(lists[i], were[i]) {
					t.Fatalf("%v: two lists of one answer share memory", n)
				}
			}
		}
	}
}

// wipe writes noughts over all that a node has.
func wipe(n api.TreeNode) {
	for _, i := range n.Items {
		clear(i.Key[:cap(i.Key)])
		clear(i.Value[:cap(i.Value)])
	}
	for _, key := range n.Keys {
		clear(key[:cap(key)])
	}
	clear(n.Items)
	clear(n.Kids)
	clear(n.Keys)
}

// strange is any node: each part of it a little wrong, or not.
func (d *draws) strange() api.TreeNode {
	n := d.node()
	if d.below(4) == 0 {
		n.Items = append(n.Items, d.leaf().Items...)
	}
	if d.below(4) == 0 {
		n.Kids = append(n.Kids, d.below(3)-1, math.MinInt, math.MaxInt)[d.below(3):]
	}
	if d.below(4) == 0 {
		n.Keys = append(n.Keys, nil, d.bytesOf(d.below(400)))[d.below(2):]
	}
	return n
}

func TestT6AnyArguments(t *testing.T) {
	d := draws(7)
	for range 20000 {
		n, key := d.strange(), d.bytesOf(d.below(40))
		b, err := Bytes(n)
		if Check(n) != err || err != api.OK && (err != api.ErrArg || b != nil) {
			t.Fatalf("%v: Bytes %d, Check %d", n, err, Check(n))
		}
		if got, may := readPaper(spelled(n)); (err == api.OK) != (may && same(got, n)) {
			t.Fatalf("%v: Check %d, but may be: %v", n, err, may)
		}
		at, there := Find(n, key)
		kid := Kid(n, key)
		if err != api.OK && (at != 0 || there || kid != -1) || kid >= max(len(n.Kids), 1) || at > len(n.Items) {
			t.Fatalf("%v: Find %d, %v, Kid %d", n, at, there, kid)
		}
		in := d.bytesOf(d.below(30))
		readsAsTold(t, in)
	}
}

func TestT6GreatArguments(t *testing.T) {
	many := api.TreeNode{Items: make([]api.Item, 1<<20), Kids: make([]int, 1<<20), Keys: make([][]byte, 1<<20)}
	for _, n := range []api.TreeNode{many, {Items: many.Items}, {Kids: many.Kids, Keys: many.Keys[1:]}, {Keys: many.Keys}, {Kids: many.Kids}} {
		if at, there := Find(n, nil); Check(n) != api.ErrArg || at != 0 || there || Kid(n, nil) != -1 || !Same(n, n) {
			t.Error("a great node")
		}
	}
	great := make([]byte, 1<<24)
	reads(t, great, api.TreeNode{})
	great[len(great)-1] = 1
	fails(t, great)
	if Key(great) || Value(great) || Compare(great, great) != 0 || Compare(great, great[1:]) != -1 {
		t.Error("a great key")
	}
	for i := range great {
		great[i] = 0xff
	}
	fails(t, great)
}
