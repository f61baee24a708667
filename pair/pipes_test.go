package pair_test

import (
	"math/rand"
	"runtime"
	"strings"
	"testing"

	"herald/api"
	"herald/pair"
)

// TestHowMany: N below 0, 0, 1, at and above what lies in a pipe, and far above.
func TestHowMany(t *testing.T) {
	for _, c := range []struct {
		n    func(int64) int64
		left func(int) int
	}{
		{func(l int64) int64 { return -1 }, func(int) int { return 0 }},
		{func(l int64) int64 { return -longest - 1 }, func(int) int { return 0 }},
		{func(l int64) int64 { return -l }, func(int) int { return 0 }},
		{func(l int64) int64 { return 0 }, func(l int) int { return l }},
		{func(l int64) int64 { return 1 }, func(l int) int { return l - 1 }},
		{func(l int64) int64 { return l / 2 }, func(l int) int { return l - l/2 }},
		{func(l int64) int64 { return l - 1 }, func(l int) int { return 1 }},
		{func(l int64) int64 { return l }, func(int) int { return 0 }},
		{func(l int64) int64 { return l + 1 }, func(int) int { return 0 }},
		{func(l int64) int64 { return 1 << 32 }, func(int) int { return 0 }},
		{func(l int64) int64 { return 1<<32 + 1 }, func(int) int { return 0 }},
		{func(l int64) int64 { return longest }, func(int) int { return 0 }},
	} {
		b := newBoth(t, world())
		b.all(move(moveClient, 0))
		b.all(move(moveToServer, c.n(33)))
		b.wantPipes(c.left(33), 0)
		b = newBoth(t, world())
		b.all(move(moveServer, 0), move(moveClient, 0), move(moveToServer, -1), move(moveServer, 0))
		b.wantPipes(0, 18)
		b.all(move(moveToClient, c.n(18)))
		b.wantPipes(0, c.left(18))
	}
}

// TestEmptyPipes: nothing is given out of them, and nothing comes of it.
func TestEmptyPipes(t *testing.T) {
	for name, b := range moments(t) {
		for range 3 { // till they are empty
			b.all(move(moveToServer, -1), move(moveToClient, -1))
		}
		before := b.last
		for _, n := range []int64{-1, 0, 1, 9, longest, -longest - 1} {
			b.all(move(moveToServer, n), move(moveToClient, n))
		}
		if wrong := unlike(b.last, before); wrong != "" {
			t.Errorf("P25.1: %s: %s", name, wrong)
		}
	}
}

// ledger is what each end sent, and how much of it the other was given.
type ledger struct {
	p     *pair.Pair
	sent  [2]string // by the client, by the server
	given [2]int
}

func (l *ledger) pipes() [2]string { return [2]string{l.p.ToServer(), l.p.ToClient()} }

// do does a move, and tells what is wrong with the pipes behind it.
func (l *ledger) do(m api.Move) string {
	before := l.pipes()
	l.p.Do(m)
	after := l.pipes()
	for i, kinds := range [2][2]int{{moveClient, moveToServer}, {moveServer, moveToClient}} {
		switch m.Kind {
		case kinds[0]:
			if !strings.HasPrefix(after[i], before[i]) {
				return "what is sent doesn't come to the end"
			}
			l.sent[i] += after[i][len(before[i]):]
		case kinds[1]:
			if !strings.HasSuffix(before[i], after[i]) {
				return "what is given isn't taken off the front"
			}
			l.given[i] += len(before[i]) - len(after[i])
		default:
			if before[i] != after[i] {
				return "a pipe is changed"
			}
		}
		if l.sent[i][l.given[i]:] != after[i] {
			return "what lies in a pipe isn't what was sent and not given"
		}
	}
	return ""
}

// TestPipesArePipes: what an end was given is a beginning of what the other sent: an
// end that is given just that, from the beginning on, tells the same.
func TestPipesArePipes(t *testing.T) {
	r := rand.New(rand.NewSource(252))
	for range 60 {
		k := &maker{r: r, window: 1, most: 2000}
		w := randomWorld(r, 1, 2000)
		p, e := pair.New(w)
		if e != 0 {
			t.Fatal(e)
		}
		twin, _ := newModel(w)
		l := &ledger{p: p}
		for n := range 120 {
			m := k.next()
			given := l.given
			if wrong := l.do(m); wrong != "" {
				t.Fatalf("P25.2: move %d, %s: %s", n, shownMove(m), wrong)
			}
			switch m.Kind {
			case moveToServer:
				twin.server.Recv(l.sent[0][given[0]:l.given[0]])
			case moveToClient:
				twin.client.Recv(l.sent[1][given[1]:l.given[1]])
			default:
				twin.do(m)
			}
			twin.toServer, twin.toClient = p.ToServer(), p.ToClient()
			if wrong := unlike(look(p), look(twin)); wrong != "" {
				t.Fatalf("P25.2: move %d, %s: %s", n, shownMove(m), wrong)
			}
		}
	}
}

// allocated is how many bytes were made so far.
func allocated() uint64 {
	var m runtime.MemStats
	runtime.ReadMemStats(&m)
	return m.TotalAlloc
}

// TestFullPipe: a pipe has no bound, and a byte at a time is taken off a long one.
func TestFullPipe(t *testing.T) {
	const bytes = 1 << 20
	text := strings.Repeat("\x00\x00\x04\xff\x00\x00\x00\x00\x00data", bytes/13)
	b := begun(t)
	b.p.Do(forge(1, text))
	before := allocated()
	for i := range 50000 {
		if e := b.p.Do(move(moveToServer, 1)); e != 0 {
			t.Fatal(e)
		}
		if i%10000 == 0 && b.p.ToServer() != text[i+1:] {
			t.Fatalf("P25.2: behind %d bytes other ones lie in the pipe", i+1)
		}
	}
	if n := allocated() - before; n > 60*bytes {
		t.Errorf("P25.2: for 50000 bytes of a long pipe %d are made", n)
	}
	b.p.Do(ask(get("/a")))
	b.p.Do(move(moveClient, 0))
	if got := b.p.ToServer(); !strings.HasPrefix(got, text[50000:]) || len(got) <= len(text)-50000+9 {
		t.Fatalf("P25.2: %d bytes lie in the pipe", len(got))
	}
	b.p.Do(move(moveToServer, -1))
	if b.p.ToServer() != "" || len(b.p.Server().Log()) != 1 {
		t.Errorf("P25.2: %d bytes are left, the log is %v", len(b.p.ToServer()), b.p.Server().Log())
	}
}

// TestManyPieces: pieces of every length that lie and are taken off in turns.
func TestManyPieces(t *testing.T) {
	r := rand.New(rand.NewSource(253))
	b := begun(t)
	want := ""
	for range 3000 {
		if r.Intn(2) == 0 {
			if r.Intn(4) == 0 {
				b.p.Do(ask(get("/a")))
			}
			before := len(b.p.ToServer())
			b.p.Do(move(moveClient, 0))
			want += b.p.ToServer()[before:]
		} else {
			n := r.Intn(12)
			b.p.Do(move(moveToServer, int64(n)))
			want = want[min(n, len(want)):]
		}
		if b.p.ToServer() != want {
			t.Fatalf("P25.2: %q lies in the pipe, want %q", b.p.ToServer(), want)
		}
	}
}
