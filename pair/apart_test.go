package pair_test

import (
	"math/rand"
	"sync"
	"testing"

	"herald/api"
	"herald/pair"
)

// story is a world and moves, some of them forged.
type story struct {
	w     api.World
	moves []api.Move
	n     int // rounds at the end
}

func randomStory(r *rand.Rand) story {
	k := &maker{r: r, window: 1, most: 900}
	s := story{w: randomWorld(r, 1, 900), n: r.Intn(9)}
	for range 80 {
		m := k.next()
		if r.Intn(60) == 0 {
			m = forge(r.Int63n(3), string(rune('a'+r.Intn(20)))+sheet)
		}
		s.moves = append(s.moves, m)
	}
	return s
}

// told is what a story tells by itself: the answers of its moves, and the end.
func (s story) told(t *testing.T) ([]api.Errno, seen) {
	p, e := pair.New(s.w)
	if e != 0 {
		t.Errorf("P25.1: New: %d", e)
		return nil, seen{}
	}
	var all []api.Errno
	for _, m := range s.moves {
		all = append(all, p.Do(m))
	}
	p.Rounds(s.n)
	return all, look(p)
}

// TestTwoPairs: in turns they tell what each tells alone, and so they do beside one
// another.
func TestTwoPairs(t *testing.T) {
	r := rand.New(rand.NewSource(257))
	for range 60 {
		two := [2]story{randomStory(r), randomStory(r)}
		if r.Intn(3) == 0 {
			two[1] = two[0]
		}
		var want [2]seen
		var answers [2][]api.Errno
		var pairs [2]*pair.Pair
		for i := range two {
			answers[i], want[i] = two[i].told(t)
			pairs[i], _ = pair.New(two[i].w)
		}
		next := [2]int{}
		for next[0] < len(two[0].moves) || next[1] < len(two[1].moves) {
			i := r.Intn(2)
			if next[i] == len(two[i].moves) {
				continue
			}
			if e := pairs[i].Do(two[i].moves[next[i]]); e != answers[i][next[i]] {
				t.Fatalf("P25.5: move %d of pair %d is answered %d, alone %d", next[i], i, e, answers[i][next[i]])
			}
			next[i]++
		}
		for i := range two {
			pairs[1-i].Still()
			pairs[i].Rounds(two[i].n)
			if wrong := unlike(look(pairs[i]), want[i]); wrong != "" {
				t.Fatalf("P25.5: beside another pair: %s", wrong)
			}
		}
	}
}

// TestPairsBeside: many at the same time. (Under the race detector: they share nothing.)
func TestPairsBeside(t *testing.T) {
	r := rand.New(rand.NewSource(258))
	var joined sync.WaitGroup
	for range 6 {
		s := randomStory(r)
		_, want := s.told(t)
		for range 3 {
			joined.Add(1)
			go func() {
				defer joined.Done()
				if _, got := s.told(t); unlike(got, want) != "" {
					t.Errorf("P25.5: beside others: %s", unlike(got, want))
				}
			}()
		}
	}
	joined.Wait()
}

// TestSameAgain is R4: the same calls tell the same, each time.
func TestSameAgain(t *testing.T) {
	r := rand.New(rand.NewSource(259))
	for range 40 {
		s := randomStory(r)
		_, want := s.told(t)
		for range 3 {
			if _, got := s.told(t); unlike(got, want) != "" {
				t.Fatalf("R4: told again: %s", unlike(got, want))
			}
		}
	}
}
