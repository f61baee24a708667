package pair_test

import (
	"testing"

	"herald/api"
	"herald/lists"
)

// few is a small world for what a fuzzer makes.
func few() api.World {
	return worldWith(func(w *api.World) {
		w.Pages = append(w.Pages, varied("/v"), page("/c", long(300)))
		w.Rules = append(w.Rules, rule("/b", "/v", "/c"))
		w.Client.Window, w.Conf.Pending = 50, 2
	})
}

// movesOf are moves by bytes, two for each.
func movesOf(text []byte) []api.Move {
	paths := []string{"/a", "/b", "/c", "/v", "/none"}
	var all []api.Move
	for i := 0; i+1 < len(text) && len(all) < 120; i += 2 {
		kind, n := int(text[i]), int64(int8(text[i+1]))
		path := paths[int(text[i+1])%len(paths)]
		switch kind % 16 {
		case moveAsk:
			all = append(all, ask(get(path)))
		case 11:
			all = append(all, ask(with(long(int(text[i+1])), by("POST", get(path)))))
		case 12:
			all = append(all, ask(by("HEAD", get(path, lists.Of("accept", "1")...))))
		case movePut:
			all = append(all, put(page(path, string(text[i:i+2]))))
		case moveSet:
			all = append(all, set(changed(func(s *api.Set) { s.Window, s.Streams, s.Push = int64(text[i+1]), int64(kind/16), int64(kind/16%2) })))
		case 13, 14, 15:
			all = append(all, oneRound()...)
		case moveForge:
			if kind == moveForge { // seldom: little happens behind it
				all = append(all, forge(n, string(text[i:])))
			}
		default:
			all = append(all, move(kind%16, n))
		}
	}
	return all
}

// FuzzMoves holds a pair against its model under any moves.
func FuzzMoves(f *testing.F) {
	f.Add([]byte{1, 0, 13, 0, 13, 0, 13, 0, 13, 0, 1, 1})
	f.Add([]byte{13, 0, 1, 1, 4, 0, 5, 3, 5, 255, 3, 1, 3, 0, 6, 9, 6, 255, 7, 11, 4, 0, 2, 1, 13, 0})
	f.Add([]byte{13, 0, 11, 200, 12, 3, 8, 0, 9, 1, 25, 0, 13, 0, 10, 0, 0, 0, 4, 8, 0, 13, 0})
	f.Fuzz(func(t *testing.T, text []byte) {
		b := newBoth(t, few())
		for _, m := range movesOf(text) {
			b.do(m)
		}
		b.rounds(200)
		b.p.Rounds(1 << 30)
	})
}

// FuzzForge lays any bytes into the pipes, in the middle of a talk, cut anywhere.
func FuzzForge(f *testing.F) {
	f.Add("\x00\x00\x00\x05\x00\x00\x00\x00\x01", "", 3)
	f.Add(framed(pushed(2, listOf(get("/c")), "evil")...), sheet, 20)
	f.Add(framed(pushed(2, listOf(from("https", "y", "/c")), "evil")...), "\x00\x00\x04\x08\x00\x00\x00\x00\x01\x7f\xff\xff\xff", 9)
	f.Add(framed(headFrame(1, lists.Of(":status", "200"), false), dataFrame(1, "body", true)), "\x00\x00\x04\x03\x00\x00\x00\x00\x01\x00\x00\x00\x08", 1)
	f.Fuzz(func(t *testing.T, toClient, toServer string, at int) {
		b := newBoth(t, few())
		b.rounds(2)
		b.all(ask(get("/a")), move(moveClient, 0), forge(0, toClient), move(moveToClient, int64(at)), move(moveToClient, -1), move(moveToServer, -1), move(moveServer, 1), forge(1, toServer), move(moveToServer, int64(at)), move(moveToServer, -1))
		if toServer == "" {
			b.all(ask(get("/c")))
		}
		b.rounds(40)
		b.p.Rounds(1 << 30)
		for _, a := range b.last.Answers {
			if a.Cached && a.Number != 2 {
				t.Fatalf("T2: %s: %s", b.history(), shown(a))
			}
		}
	})
}
