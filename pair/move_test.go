package pair_test

import (
	"fmt"
	"strings"
	"testing"

	"herald/api"
	"herald/lists"
)

// moments are pairs at several points of a talk, some with bytes in the pipes.
func moments(t *testing.T) map[string]*both {
	t.Helper()
	all := map[string]*both{}
	at := func(name string, moves ...api.Move) {
		t.Helper()
		b := begun(t)
		b.all(moves...)
		all[name] = b
	}
	all["new"] = newBoth(t, world())
	at("begun")
	at("waiting", ask(get("/a")))
	at("asked", ask(get("/a")), move(moveClient, 0))
	at("promised", ask(get("/a")), move(moveClient, 0), move(moveToServer, -1), move(moveServer, 0))
	at("under way", ask(get("/a")), move(moveClient, 0), move(moveToServer, -1), move(moveServer, 0), move(moveToClient, -1), move(moveServer, 1))
	at("in the middle of a frame", ask(get("/a")), move(moveClient, 0), move(moveToServer, 5), move(moveServer, 0), move(moveToClient, 3))
	all["kept"] = second(t)
	at("dead client", forge(0, "xxxxxxxxx"), move(moveToClient, -1))
	at("dead server", forge(1, "xxxxxxxxx"), move(moveToServer, -1))
	return all
}

// TestNoSuchKinds: kinds that there are not, whatever the other fields say.
func TestNoSuchKinds(t *testing.T) {
	for name, b := range moments(t) {
		for _, kind := range []int{0, -1, 11, 12, 100, 1 << 30, -1 << 31, 256 + 1, 1<<16 + 1} {
			b.wantRefused(api.Move{Kind: kind}, 1)
			m := full(kind)
			b.wantRefused(m, 1)
		}
		if wrong := unlike(look(b.p), b.last); wrong != "" {
			t.Errorf("P25.1: %s: %s", name, wrong)
		}
	}
}

// full is a move with something in every field.
func full(kind int) api.Move {
	return api.Move{Kind: kind, N: 1, Request: get("/b"), Page: page("/b", "full"), Set: changed(func(s *api.Set) { s.Window = 7 }), Bytes: "full"}
}

// TestOtherFields: what a kind doesn't name isn't looked at, right or wrong.
func TestOtherFields(t *testing.T) {
	for _, m := range []api.Move{
		ask(get("/a")), move(moveCancel, 1), move(moveServer, 2), move(moveClient, 2), move(moveToServer, 4), move(moveToClient, 4),
		move(moveTick, 3), put(page("/b", "new")), set(changed(func(s *api.Set) { s.Window = 9 })), forge(0, "forged"), forge(1, ""),
	} {
		for name := range moments(t) {
			plain, full := moments(t)[name], moments(t)[name]
			other := m
			switch m.Kind {
			case moveAsk, movePut, moveSet:
				other.N = -5
			}
			if m.Kind != moveAsk {
				other.Request = api.Request{Method: "no", Fields: lists.Of("A", "")}
			}
			if m.Kind != movePut {
				other.Page = api.Page{Status: -1}
			}
			if m.Kind != moveSet {
				other.Set = api.Set{Push: 9}
			}
			if m.Kind != moveForge {
				other.Bytes = "xxxxxxxxxxxx"
			}
			e, want := full.do(other), plain.do(m)
			if wrong := unlike(full.last, plain.last); e != want || wrong != "" {
				t.Fatalf("P25.1: %s, %s, with other fields: %d, want %d; %s", name, shownMove(m), e, want, wrong)
			}
		}
	}
}

// TestRefusedAsks: for each of its reasons.
func TestRefusedAsks(t *testing.T) {
	many := lists.Filled(nil, 65)
	big := get("/a")
	for i := range 17 {
		big.Fields = append(big.Fields, api.Field{Name: fmt.Sprint("x-", i), Value: strings.Repeat("v", 4000)})
	}
	for name, b := range moments(t) {
		for _, c := range []struct {
			r api.Request
			e api.Errno
		}{
			{get("/a", many...), 3},
			{get("/a", lists.Of("Accept", "x")...), 130},
			{api.Request{}, 131},
			{by("", get("/a")), 131},
			{get("/a", lists.Of("content-length", "5")...), 140},
			{with("body", get("/a", lists.Of("content-length", "5")...)), 140},
			{with(strings.Repeat("b", 65537), by("POST", get("/a"))), 140},
			{big, 51},
		} {
			b.wantRefused(ask(c.r), c.e)
		}
		if name == "new" {
			for range 256 {
				b.all(ask(get("/q")))
			}
			b.wantRefused(ask(get("/q")), 6)
		}
	}
}

// TestRefusedCancels: of what is neither waiting nor under way.
func TestRefusedCancels(t *testing.T) {
	none := []int64{0, -1, 2, 100, 1 << 31, 1<<32 + 1, 1 << 40, -1 << 32, longest, -longest - 1, longest - 1}
	for name, b := range moments(t) {
		for _, n := range none {
			b.wantRefused(move(moveCancel, n), 5)
		}
		switch name {
		case "new", "begun", "kept", "dead client", "dead server":
			b.wantRefused(move(moveCancel, 1), 5)
		default:
			b.all(move(moveCancel, 1))
			b.wantAnswers(failed(1, cancel))
			b.wantRefused(move(moveCancel, 1), 5)
		}
	}
}

// TestRefusedTicks: those that go back, or are too great.
func TestRefusedTicks(t *testing.T) {
	for _, b := range moments(t) {
		b.wantRefused(move(moveTick, -1), 1)
		b.wantRefused(move(moveTick, 1<<60+1), 1)
		b.wantRefused(move(moveTick, longest), 1)
		b.all(move(moveTick, 0), move(moveTick, 7), move(moveTick, 7))
		b.wantRefused(move(moveTick, 6), 1)
		b.wantRefused(move(moveTick, -longest-1), 1)
		b.all(move(moveTick, 1<<60))
		b.wantRefused(move(moveTick, 1<<60-1), 1)
		if b.last.Now != 1<<60 {
			t.Errorf("P25.1: it is %d", b.last.Now)
		}
	}
}

// TestRefusedPuts: of pages that aren't right, and of one too many.
func TestRefusedPuts(t *testing.T) {
	for _, b := range moments(t) {
		for _, p := range []api.Page{{}, page("b", "x"), pageOf("", "/b", ""), {Authority: "x", Path: "/b", Status: 200}, page("/b", strings.Repeat("b", 65537))} {
			b.wantRefused(put(p), 170)
		}
		for i := range 62 {
			b.all(put(page(fmt.Sprint("/more", i), "")))
		}
		b.wantRefused(put(page("/one-more", "")), 6)
		b.all(put(page("/a", "other")))
		if b.last.Version != 64 {
			t.Errorf("P25.1: version %d", b.last.Version)
		}
	}
}

// TestRefusedSets: of what doesn't fit, of one too many, and of a dead client.
func TestRefusedSets(t *testing.T) {
	for name, b := range moments(t) {
		if name == "dead client" {
			b.wantRefused(set(standard()), 210)
			b.wantRefused(set(api.Set{}), 210)
			continue
		}
		for _, s := range []api.Set{{}, changed(func(s *api.Set) { s.Push = 2 }), changed(func(s *api.Set) { s.List = 1023 }), changed(func(s *api.Set) { s.Window = top + 1 })} {
			b.wantRefused(set(s), 1)
		}
		n := 0
		for ; n < 100 && b.do(set(changed(func(s *api.Set) { s.Window = int64(n) }))) == 0; n++ {
		}
		if n < 63 || n > 64 { // the first SETTINGS waits too, in a new one
			t.Errorf("P25.1: %s: %d sets are taken", name, n)
		}
		b.wantRefused(set(standard()), 6)
	}
}

// TestSteps: each end's bytes go to the end of the other's pipe, whatever the pick.
func TestSteps(t *testing.T) {
	b := newBoth(t, world())
	b.all(move(moveServer, 0))
	b.wantPipes(0, 9)
	b.all(move(moveServer, 0), move(moveServer, longest), move(moveServer, -longest-1))
	b.wantPipes(0, 9)
	b.all(move(moveClient, -1), move(moveToServer, -1), move(moveToClient, -1))
	b.all(ask(get("/a")), ask(get("/b")), move(moveClient, 5), move(moveClient, -7))
	n := len(b.last.ToServer)
	b.all(move(moveClient, 0))
	b.wantPipes(n, 0)
	b.all(move(moveToServer, -1), move(moveServer, 0)) // the promise of /b: 1, 2 and 3 are ready
	before := b.last.ToClient
	b.all(move(moveServer, -1))
	if got := b.last.ToClient[len(before):]; !strings.HasPrefix(b.last.ToClient, before) || got[3] != headers || got[8] != 3 {
		t.Errorf("P25.1: picked of three by -1: % x", got)
	}
	before = b.last.ToClient
	b.all(move(moveServer, 4)) // 1, 2, 3 once more
	if got := b.last.ToClient[len(before):]; !strings.HasPrefix(b.last.ToClient, before) || got[3] != headers || got[8] != 2 {
		t.Errorf("P25.1: picked of three by 4: % x", got)
	}
	b.rounds(9)
	b.wantStill(true)
}

// TestLooksAround: each look ahead of and behind every move of a talk, written out.
func TestLooksAround(t *testing.T) {
	b := newBoth(t, world())
	type state struct {
		toServer, toClient        int
		waiting, flying, pending  int
		held, answered, lines     int
		serverIdle, clientIdle, s bool
	}
	want := func(m api.Move, x state) {
		t.Helper()
		b.all(m)
		l := b.last
		got := state{len(l.ToServer), len(l.ToClient), l.Waiting, l.Flying, l.Pending, l.Held, len(l.Answers), len(l.Log), l.Idle[0], l.Idle[1], l.Still}
		if got != x {
			t.Fatalf("P25.1: %s: %+v, want %+v", b.history(), got, x)
		}
	}
	want(move(moveClient, 0), state{33, 0, 0, 0, 0, 0, 0, 0, false, true, false})
	want(move(moveToServer, -1), state{0, 0, 0, 0, 0, 0, 0, 0, false, true, false})
	want(move(moveServer, 0), state{0, 18, 0, 0, 0, 0, 0, 0, true, true, false})
	want(move(moveToClient, -1), state{0, 0, 0, 0, 0, 0, 0, 0, true, false, false})
	want(move(moveClient, 0), state{9, 0, 0, 0, 0, 0, 0, 0, true, true, false})
	want(move(moveToServer, -1), state{0, 0, 0, 0, 0, 0, 0, 0, true, true, true})
	want(ask(get("/a")), state{0, 0, 1, 0, 0, 0, 0, 0, true, false, false})
	b.all(move(moveClient, 0))
	n := len(b.last.ToServer)
	want(move(moveToServer, int64(n)-1), state{1, 0, 0, 1, 0, 0, 0, 0, true, true, false})
	want(move(moveToServer, 1), state{0, 0, 0, 1, 0, 0, 0, 1, false, true, false})
	b.all(move(moveServer, 0))
	n = len(b.last.ToClient)
	want(move(moveTick, 1), state{0, n, 0, 1, 0, 0, 0, 2, false, true, false})
	want(move(moveToClient, 1), state{0, n - 1, 0, 1, 0, 0, 0, 2, false, true, false})
	want(move(moveToClient, int64(n)), state{0, 0, 0, 1, 1, 0, 0, 2, false, true, false})
	want(put(page("/b", "late")), state{0, 0, 0, 1, 1, 0, 0, 2, false, true, false})
	b.all(move(moveServer, 0), move(moveServer, 0))
	n = len(b.last.ToClient)
	want(move(moveToClient, int64(n)), state{0, 0, 0, 0, 1, 0, 1, 2, false, false, false})
	want(move(moveClient, 0), state{13, 0, 0, 0, 1, 0, 1, 2, false, true, false})
	b.all(move(moveServer, 0), move(moveServer, 0))
	n = len(b.last.ToClient)
	want(move(moveTick, 1), state{13, n, 0, 0, 1, 0, 1, 2, true, true, false})
	want(move(moveToClient, -1), state{13, 0, 0, 0, 0, 1, 1, 2, true, false, false})
	want(move(moveToServer, -1), state{0, 0, 0, 0, 0, 1, 1, 2, true, false, false})
	want(move(moveClient, 0), state{13, 0, 0, 0, 0, 1, 1, 2, true, true, false})
	want(move(moveToServer, -1), state{0, 0, 0, 0, 0, 1, 1, 2, true, true, true})
	want(ask(get("/b")), state{0, 0, 0, 0, 0, 0, 2, 2, true, true, true})
	b.wantAnswers(answer(1, false, 1, "A"), answer(2, true, 2, "B"))
}
