package pair_test

import (
	"fmt"
	"math/rand"
	"testing"

	"herald/api"
	"herald/pair"
)

// talk is a whole one, with a body, pushes, a change and another set.
func talk() (api.World, []api.Move) {
	w := worldWith(func(w *api.World) {
		w.Pages = append(w.Pages, page("/c", "CC"), varied("/v"))
		w.Rules = append(w.Rules, rule("/b", "/c", "/v", "/a"))
		w.Client.Window = 300
	})
	moves := []api.Move{ask(get("/a")), ask(with("body", by("POST", get("/c")))), ask(by("HEAD", get("/b")))}
	for i := range 16 {
		moves = append(moves, oneRound()...)
		switch i {
		case 2:
			moves = append(moves, ask(get("/b", api.Field{Name: "cookie", Value: "secret", Never: true})), put(page("/c", "changed")))
		case 3:
			moves = append(moves, move(moveServer, 1), move(moveServer, 1), set(changed(func(s *api.Set) { s.Window, s.Table = 2, 100 })))
		case 5:
			moves = append(moves, move(moveTick, 4), move(moveCancel, 4), ask(get("/v")))
		}
	}
	return w, moves
}

// play does moves with a pair, each delivery cut in pieces: at tells where, of so
// many bytes.
func play(t *testing.T, w api.World, moves []api.Move, at func(n int) []int) *pair.Pair {
	t.Helper()
	p, e := pair.New(w)
	if e != 0 {
		t.Fatalf("P25.1: New: %d", e)
	}
	for _, m := range moves {
		switch m.Kind {
		case moveToServer:
			deliver(p, m, len(p.ToServer()), at)
		case moveToClient:
			deliver(p, m, len(p.ToClient()), at)
		default:
			p.Do(m)
		}
	}
	return p
}

// deliver does one delivery, of n bytes in all, in several moves.
func deliver(p *pair.Pair, m api.Move, lie int, at func(n int) []int) {
	n := lie
	if m.N >= 0 {
		n = min(n, int(m.N))
	}
	done := 0
	for _, place := range at(n) {
		p.Do(move(m.Kind, int64(place-done)))
		done = place
	}
	p.Do(move(m.Kind, int64(n-done)))
}

func inOne(int) []int { return nil }

// eachByte cuts everywhere, with empty deliveries between.
func eachByte(n int) []int {
	var all []int
	for i := range n {
		all = append(all, i, i)
	}
	return all
}

// TestChunks is T7: one cut, at every place of every delivery; every byte for itself;
// and pieces of any length.
func TestChunks(t *testing.T) {
	w, moves := talk()
	want := look(play(t, w, moves, inOne))
	if len(want.Answers) < 4 || len(want.Log) < 6 {
		t.Fatalf("too little is told: %s, %v", shown(want.Answers), want.Log)
	}
	total := 0
	play(t, w, moves, func(n int) []int { total += n; return nil })
	for place := range total {
		before := 0
		once := func(n int) []int {
			defer func() { before += n }()
			if place >= before && place <= before+n {
				return []int{place - before}
			}
			return nil
		}
		if wrong := unlike(look(play(t, w, moves, once)), want); wrong != "" {
			t.Fatalf("P25.3: cut at byte %d of all: %s", place, wrong)
		}
	}
	if wrong := unlike(look(play(t, w, moves, eachByte)), want); wrong != "" {
		t.Fatalf("P25.3: byte by byte: %s", wrong)
	}
}

// TestChunksBehindEachMove: what is told is the same behind every move, not only at
// the end, in random worlds.
func TestChunksBehindEachMove(t *testing.T) {
	r := rand.New(rand.NewSource(256))
	for i := range 80 {
		w := randomWorld(r, 1, 3000)
		k := &maker{r: r, window: 1, most: 3000}
		whole, e := pair.New(w)
		pieces, _ := pair.New(w)
		if e != 0 {
			t.Fatal(e)
		}
		few := func(n int) []int {
			var all []int
			for at := 0; n > 0 && at < n; at += 1 + r.Intn(1+n/(1+r.Intn(8))) {
				all = append(all, at)
			}
			return all
		}
		for n := range 120 {
			m := k.next()
			whole.Do(m)
			switch m.Kind {
			case moveToServer:
				deliver(pieces, m, len(pieces.ToServer()), few)
			case moveToClient:
				deliver(pieces, m, len(pieces.ToClient()), few)
			default:
				pieces.Do(m)
			}
			if wrong := unlike(look(pieces), look(whole)); wrong != "" {
				t.Fatalf("P25.3: world %d, move %d, %s: %s", i, n, shownMove(m), wrong)
			}
		}
	}
}

// TestForgedChunks: also of what was forged, by which an end dies.
func TestForgedChunks(t *testing.T) {
	for i, text := range []string{
		"\x00\x00\x00\x05\x00\x00\x00\x00\x01no",
		"\x00\x00\x08\x06\x00\x00\x00\x00\x00pingpong\x00\x00\x03\x00\x00\x00\x00\x00\x09abc" + sheet,
		"\x00\x00\x04\x08\x00\x00\x00\x00\x00\x00\x00\x00\x00" + sheet,
		sheet + sheet + "\x00\x00\x04\x03\x00\x00\x00\x00\x01\x00\x00\x00\x08" + sheet,
	} {
		for n := range int64(2) {
			moves := append(oneRound(), oneRound()...)
			moves = append(moves, ask(get("/a")), move(moveClient, 0), move(moveToServer, -1), forge(n, text), move(moveToClient, -1), move(moveToServer, -1))
			moves = append(moves, oneRound()...)
			want := look(play(t, world(), moves, inOne))
			for place := range len(text) + 1 {
				at := func(n int) []int { return []int{min(place, n)} }
				if wrong := unlike(look(play(t, world(), moves, at)), want); wrong != "" {
					t.Fatalf("P25.3: forged text %d of %d, cut at %d: %s", i, n, place, wrong)
				}
			}
			if wrong := unlike(look(play(t, world(), moves, eachByte)), want); wrong != "" {
				t.Fatalf("P25.3: %s", fmt.Sprint("forged text ", i, " byte by byte: ", wrong))
			}
		}
	}
}
