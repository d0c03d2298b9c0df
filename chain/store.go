package chain

import (
	"bytes"
	"math"
	"slices"

	"pawl/api"
	"pawl/wire"
)

const (
	countSize = 2           // bytes of the number of keys
	numSize   = 4           // bytes of an N
	anyLength = math.MaxInt // of an Of, and of a Key: the format has no bound for them
)

// Skip is a message key that was skipped: of which chain, by the name that the caller gives it, and its number there.
type Skip struct {
	Of  []byte
	N   uint32
	Key []byte
}

// Store is the newest MaxStore of the keys that were put into it, each Of and N once. Its zero value is empty and ready for use.
type Store struct {
	keys []Skip // the oldest first
}

// Put adds x as the newest key. It replaces an earlier one with the same Of and N; if there are too many, the oldest is removed.
func (s *Store) Put(x Skip) {
	if s == nil {
		return
	}
	s.Drop(x.Of, x.N)
	s.keys = append(s.keys, x.clone())
	if s.Len() > api.MaxStore {
		s.remove(0)
	}
}

// Get returns the key with that Of and N, or false if it is not there.
func (s *Store) Get(of []byte, n uint32) ([]byte, bool) {
	i, ok := s.find(of, n)
	if !ok {
		return nil, false
	}
	return slices.Clone(s.keys[i].Key), true
}

// Drop removes the key with that Of and N. It returns false if it is not there.
func (s *Store) Drop(of []byte, n uint32) bool {
	i, ok := s.find(of, n)
	if ok {
		s.remove(i)
	}
	return ok
}

// Len returns the number of keys.
func (s *Store) Len() int {
	if s == nil {
		return 0
	}
	return len(s.keys)
}

// All returns the keys, the oldest first.
func (s *Store) All() []Skip {
	if s == nil {
		return nil
	}
	all := make([]Skip, len(s.keys))
	for i, x := range s.keys {
		all[i] = x.clone()
	}
	return all
}

// Copy returns a store of its own with the same keys; that of a nil one is empty.
func (s *Store) Copy() *Store { return &Store{keys: s.All()} }

// Lay writes the keys, the oldest first. A nil store has none.
func (s *Store) Lay(w *wire.Writer) {
	w.Num(uint64(s.Len()), countSize)
	for _, x := range s.All() {
		w.Bytes(x.Of).Num(uint64(x.N), numSize).Bytes(x.Key)
	}
}

// Read returns the store whose keys Lay has written so, or false if there is none.
func Read(r *wire.Reader) (*Store, bool) {
	s := &Store{}
	n := r.Count(api.MaxStore)
	for range n {
		of := r.Bytes(anyLength)
		number := uint32(r.Num(numSize))
		s.Put(Skip{Of: of, N: number, Key: r.Bytes(anyLength)})
	}
	// If an Of and N is there twice, Put has replaced a key: no store has both.
	if r.Bad() || s.Len() != n {
		return nil, false
	}
	return s, true
}

// find returns the index of the key with that Of and N, or false if it is not there.
func (s *Store) find(of []byte, n uint32) (int, bool) {
	if s == nil {
		return 0, false
	}
	i := slices.IndexFunc(s.keys, func(x Skip) bool { return x.N == n && bytes.Equal(x.Of, of) })
	return i, i >= 0
}

func (s *Store) remove(i int) { s.keys = slices.Delete(s.keys, i, i+1) }

// clone returns x with slices that share no memory with those of x.
func (x Skip) clone() Skip {
	return Skip{Of: slices.Clone(x.Of), N: x.N, Key: slices.Clone(x.Key)}
}
