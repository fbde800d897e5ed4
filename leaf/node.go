package leaf

import (
	"math"
	"slices"

	"headwater/api"
	"headwater/octet"
)

// The first byte of a leaf's and of a branch's bytes.
const (
	leafByte   = 0
	branchByte = 1
)

const (
	// minKids is how many children a branch has at least.
	minKids = 2
	// kidSize is how many bytes a child's number has.
	kidSize = 4
)

// node is a leafNode or a branchNode: each has only what such a node has.
type node interface {
	// may answers if such a node may be.
	may() bool
}

type leafNode struct{ items []api.Item }

type branchNode struct {
	kids []int
	keys [][]byte
}

// told answers what the node is, nothing if it may not be.
func told(n api.TreeNode) node {
	leaf, branch := leafNode{n.Items}, branchNode{n.Kids, n.Keys}
	switch {
	case len(n.Kids) == 0 && len(n.Keys) == 0 && leaf.may():
		return leaf
	case len(n.Items) == 0 && branch.may():
		return branch
	}
	return nil
}

// joined answers the node with what it has.
func joined(x node) api.TreeNode {
	switch x := x.(type) {
	case leafNode:
		return api.TreeNode{Items: x.items}
	case branchNode:
		return api.TreeNode{Kids: x.kids, Keys: x.keys}
	}
	return api.TreeNode{}
}

// place answers where the key is, or would be, in a leaf, and if it is there.
func place(x node, key []byte) (int, bool) {
	switch x := x.(type) {
	case leafNode:
		return slices.BinarySearchFunc(x.keys(), key, Compare)
	}
	return 0, false
}

// child answers how many keys of a branch are not above key.
func child(x node, key []byte) int {
	switch x := x.(type) {
	case branchNode:
		at, there := slices.BinarySearchFunc(x.keys, key, Compare)
		if there {
			at++
		}
		return at
	}
	return -1
}

// put answers the bytes of a node that may be.
func put(x node) []byte {
	switch x := x.(type) {
	case leafNode:
		return putLeaf(x)
	case branchNode:
		return putBranch(x)
	}
	return nil
}

func putLeaf(l leafNode) []byte {
	b := []byte{leafByte, byte(len(l.items))}
	for _, item := range l.items {
		b = octet.Block(octet.Block(b, item.Key), item.Value)
	}
	return b
}

func putBranch(n branchNode) []byte {
	b := []byte{branchByte, byte(len(n.kids))}
	for _, kid := range n.kids {
		b = octet.Word(b, uint64(kid), kidSize)
	}
	for _, key := range n.keys {
		b = octet.Block(b, key)
	}
	return b
}

// read reads what may not be a node yet, nothing where the first byte tells of none.
func read(in *octet.Reader) node {
	first, count := in.Word(1), int(in.Word(1))
	switch first {
	case leafByte:
		return readLeaf(in, count)
	case branchByte:
		return readBranch(in, count)
	}
	return nil
}

func readLeaf(in *octet.Reader, count int) leafNode {
	var l leafNode
	for range count {
		l.items = append(l.items, api.Item{Key: in.Block(), Value: in.Block()})
	}
	return l
}

func readBranch(in *octet.Reader, count int) branchNode {
	var n branchNode
	for range count {
		n.kids = append(n.kids, int(in.Word(kidSize)))
	}
	for range count - 1 {
		n.keys = append(n.keys, in.Block())
	}
	return n
}

func (l leafNode) may() bool {
	if len(l.items) > api.Order {
		return false
	}
	for _, item := range l.items {
		if !Value(item.Value) {
			return false
		}
	}
	return rising(l.keys())
}

func (l leafNode) keys() [][]byte {
	keys := make([][]byte, 0, len(l.items))
	for _, item := range l.items {
		keys = append(keys, item.Key)
	}
	return keys
}

func (n branchNode) may() bool {
	return minKids <= len(n.kids) && len(n.kids) <= api.Order &&
		len(n.keys) == len(n.kids)-1 && pages(n.kids) && rising(n.keys)
}

// pages answers if all may be numbers of pages, no two the same.
func pages(kids []int) bool {
	for i, kid := range kids {
		if kid < 0 || kid > math.MaxInt32 || slices.Contains(kids[:i], kid) {
			return false
		}
	}
	return true
}

// rising answers if all may be keys, each above the one ahead.
func rising(keys [][]byte) bool {
	for i, key := range keys {
		if !Key(key) || i > 0 && Compare(keys[i-1], key) >= 0 {
			return false
		}
	}
	return true
}

func noughts(b []byte) bool {
	for _, c := range b {
		if c != 0 {
			return false
		}
	}
	return true
}
