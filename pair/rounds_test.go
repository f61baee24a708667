package pair_test

import (
	"math/rand"
	"testing"

	"herald/api"
	"herald/pair"
)

// TestNoRounds: none, if n is below 1.
func TestNoRounds(t *testing.T) {
	for name, b := range moments(t) {
		before := b.last
		for _, n := range []int{0, -1, -2, -1 << 31, -int(^uint(0)>>1) - 1} {
			b.rounds(n)
			if wrong := unlike(b.last, before); wrong != "" {
				t.Fatalf("P25.4: %s: Rounds(%d): %s", name, n, wrong)
			}
		}
	}
}

// TestRoundsAreMoves: n rounds are n times the four moves, from any moment on.
func TestRoundsAreMoves(t *testing.T) {
	r := rand.New(rand.NewSource(255))
	for i := range 60 {
		w := randomWorld(r, 1, 200)
		k := &maker{r: r, window: 1, most: 200}
		var moves []api.Move
		for range r.Intn(60) {
			moves = append(moves, k.next())
		}
		for _, n := range []int{0, 1, 2, 3, 7, r.Intn(40)} {
			whole, single := newBoth(t, w), newBoth(t, w)
			for _, m := range moves {
				whole.do(m)
				single.do(m)
			}
			whole.p.Rounds(n)
			for range n {
				for _, m := range oneRound() {
					single.do(m)
				}
			}
			if wrong := unlike(look(whole.p), single.last); wrong != "" {
				t.Fatalf("P25.4: world %d: %d rounds aren't %d times four moves: %s", i, n, n, wrong)
			}
		}
	}
}

// TestOneRound: its four moves, in their order, each of them written out.
func TestOneRound(t *testing.T) {
	b := newBoth(t, world())
	b.rounds(1)
	kinds := func(l []api.Entry) string {
		text := ""
		for _, e := range l {
			way := "g"
			if e.Sent {
				way = "s"
			}
			text += way + string(rune('0'+e.F.Type)) + string(rune('0'+e.F.Flags)) + " "
		}
		return text
	}
	// The client steps ahead of what comes, the server behind what came.
	if host, user := kinds(b.last.ServerTrace), kinds(b.last.UserTrace); host != "g40 s40 s41 " || user != "s40 g40 g41 " {
		t.Errorf("P25.4: a round: the server's log is %s, the client's %s", host, user)
	}
	b.wantPipes(0, 0)
	b.wantStill(false)
	b.all(ask(get("/a")))
	b.rounds(1)
	if host, user := kinds(b.last.ServerTrace), kinds(b.last.UserTrace); host != "g40 s40 s41 g41 g15 s54 " || user != "s40 g40 g41 s41 s15 g54 " {
		t.Errorf("P25.4: the second round: the server's log is %s, the client's %s", host, user)
	}
}

// TestRoundsGiveWhatLies: also what lay in the pipes ahead of them.
func TestRoundsGiveWhatLies(t *testing.T) {
	ping := "\x00\x00\x08\x06\x00\x00\x00\x00\x00pingpong"
	for n := range int64(2) {
		b := begun(t)
		b.all(forge(n, ping))
		b.rounds(1)
		b.wantPipes(0, 0)
		b.rounds(1)
		for i, l := range [][]api.Entry{b.last.UserTrace, b.last.ServerTrace} {
			if sent := len(sentOf(l, 6)); (sent == 1) != (int64(i) == n) {
				t.Errorf("P25.4: a PING that lay in pipe %d: end %d answered %d", n, i, sent)
			}
		}
	}
}

// TestRoundsGoOn: a round in which something only lay in a pipe isn't the last, nor
// is one in which one end alone sends.
func TestRoundsGoOn(t *testing.T) {
	ping := "\x00\x00\x08\x06\x00\x00\x00\x00\x00pingpong"
	b := begun(t)
	b.all(forge(0, ping)) // nobody sends in the first round, the client in the second
	b.rounds(1 << 30)
	if n := len(framesOf(b.last.ServerTrace, false)); n != 3 || len(sentOf(b.last.UserTrace, 6)) != 1 {
		t.Errorf("P25.4: %d frames came to the server", n)
	}
	b = begun(t)
	b.all(forge(0, ping[:12]), move(moveToClient, 4)) // half a frame, of which a piece lies there
	b.rounds(1 << 30)
	b.all(forge(0, ping[12:]))
	b.rounds(1 << 30)
	if n := len(sentOf(b.last.UserTrace, 6)); n != 1 {
		t.Errorf("P25.4: the client answers %d PINGs", n)
	}
	b = begun(t)
	b.all(ask(with(long(300000/5), by("POST", get("/a"))))) // the client alone has units to send, for some rounds
	b.rounds(1 << 30)
	b.wantStill(true)
	if len(b.last.Answers) != 1 || b.last.Answers[0].Response.Status != 405 {
		t.Errorf("P25.4: %s", shown(b.last.Answers))
	}
}

// TestRoundsEnd: a great many, where there is little to do or nothing, and where
// something waits for ever.
func TestRoundsEnd(t *testing.T) {
	const many = int(^uint(0) >> 1)
	for name, b := range moments(t) {
		b.p.Rounds(many)
		b.m.rounds(60)
		b.look()
		b.wantPipes(0, 0)
		before := b.last
		b.p.Rounds(many)
		if wrong := unlike(look(b.p), before); wrong != "" {
			t.Errorf("P25.4: %s: rounds behind the last change something: %s", name, wrong)
		}
	}
	for _, w := range []api.World{
		worldWith(func(w *api.World) { w.Server.Streams = 0 }), // the request waits
		worldWith(func(w *api.World) { w.Client.Streams = 0 }), // what was promised waits
		worldWith(func(w *api.World) { w.Client.Window = 0 }),  // the bodies wait
		worldWith(func(w *api.World) { w.Client.Window, w.Client.Streams = 0, 0 }),
	} {
		p, e := pair.New(w)
		if e != 0 {
			t.Fatal(e)
		}
		p.Do(ask(get("/a")))
		p.Rounds(many)
		if p.Still() || p.ToServer()+p.ToClient() != "" {
			t.Errorf("P25.4: Still is %v, %d bytes lie in the pipes", p.Still(), len(p.ToServer()+p.ToClient()))
		}
	}
}
