package run_test

import (
	"fmt"
	"slices"
	"strings"
	"testing"

	"herald/api"
	"herald/run"
	"herald/script"
)

// taken apart is a script as its world and its moves; what asks is left out.
func takenApart(t *testing.T, lines []string) (api.World, []api.Move) {
	t.Helper()
	l, e := script.Parse(lined(lines...))
	if e != 0 || len(l) == 0 {
		t.Fatalf("%s is read as %d commands, %d", shown(lined(lines...)), len(l), e)
	}
	var moves []api.Move
	for _, c := range l {
		if c.Kind == 2 {
			moves = append(moves, c.Move)
		}
	}
	return l[0].World, moves
}

// exampleWorld is the examples' one.
func exampleWorld(t *testing.T) api.World {
	w, _ := takenApart(t, world())
	return w
}

// holdTell holds what a world and moves tell against what the text tells that script
// prints them as: what that is, and whether there is one.
func holdTell(t *testing.T, w api.World, moves []api.Move) (string, bool) {
	t.Helper()
	l := []script.Command{{Kind: 1, World: w}}
	for _, m := range moves {
		l = append(l, script.Command{Kind: 2, Move: m})
	}
	want, wantError := "", scriptError
	if text, e := script.Print(l); e == 0 {
		want, wantError = modelPlay(text)
		if told, e := run.Play(text); told != want || e != wantError {
			t.Fatalf("P27.1: Play(%s): %d, want %d; %s", shown(text), e, wantError, unlike(told, want))
		}
	}
	for range 2 {
		got, e := run.Tell(w, moves)
		if got != want || e != wantError {
			t.Fatalf("P27.1: Tell of %d moves: %d, want %d; %s", len(moves), e, wantError, unlike(got, want))
		}
	}
	return want, wantError == 0
}

func wantTell(t *testing.T, w api.World, moves []api.Move, want ...string) {
	t.Helper()
	if got, e := run.Tell(w, moves); e != 0 || got != lined(want...) {
		t.Errorf("P27.1: Tell of %d moves: %d; %s", len(moves), e, unlike(got, lined(want...)))
	}
	holdTell(t, w, moves)
}

func wantUntold(t *testing.T, why string, w api.World, moves []api.Move) {
	t.Helper()
	if got, e := run.Tell(w, moves); e != scriptError || got != "" {
		t.Errorf("P27.1: Tell of %s: %s, %d", why, shown(got), e)
	}
	holdTell(t, w, moves)
}

// TestTell: a world alone, and with moves behind it, refused ones too.
func TestTell(t *testing.T) {
	w := exampleWorld(t)
	wantTell(t, w, nil, "ok")
	wantTell(t, w, []api.Move{}, "ok")
	wantTell(t, w, []api.Move{{Kind: moveClient}, {Kind: moveToServer, N: 10}, {Kind: moveToServer, N: -1}}, "ok", "ok 33", "ok 10", "ok 23")
	_, moves := takenApart(t, behind("server 0", "toclient -1", "client 0", "toserver -1", getA, getA, "client 0", "cancel 2", "cancel 2", "tick 3", "tick 2",
		`put "x" "/c" 200 "" "" "\x00\"\\\xff"`, `put "x" "/c" 200 ""`, "set "+standard, "set 0 0 0 0 0 0", `forge 1 "\x00\"\\\xff"`, `forge 2 ""`, "toserver 3"))
	wantTell(t, w, moves, "ok", "ok 9", "ok 9", "ok 42", "ok 42", "ok 1", "ok 2", "ok 18", "ok", "no 5", "ok", "no 1", "ok 2", "no 170", "ok", "no 1", "ok", "no 1", "ok 3")
}

// TestTellOther: what a move's kind doesn't name isn't looked at.
func TestTellOther(t *testing.T) {
	w := exampleWorld(t)
	_, moves := takenApart(t, behind(getA, "client 0", "server 0", "toserver 40", "toclient -1", "cancel 1", "tick 3", `put "x" "/a" 200 "" "" "new"`, "set "+standard, `forge 0 "abc"`))
	want, _ := holdTell(t, w, moves)
	for i := range moves {
		other := slices.Clone(moves)
		m := &other[i]
		if m.Kind != moveAsk {
			m.Request = api.Request{Method: "\n", Fields: []api.Field{{Name: strings.Repeat("A", mostLine)}}}
		}
		if m.Kind != movePut {
			m.Page = api.Page{Path: strings.Repeat("A", mostLine), Status: -1}
		}
		if m.Kind != moveSet {
			m.Set = api.Set{Table: -1}
		}
		if m.Kind != moveForge {
			m.Bytes = strings.Repeat("A", mostLine)
		}
		if m.Kind == moveAsk || m.Kind == movePut || m.Kind == moveSet {
			m.N = -longest - 1
		}
		if got, e := run.Tell(w, other); got != want || e != 0 {
			t.Errorf("P27.1: with other fields in move %d: %d; %s", i, e, unlike(got, want))
		}
	}
}

// TestTellNoMove: kinds that there are not, wherever they stand.
func TestTellNoMove(t *testing.T) {
	w, moves := takenApart(t, behind(story()...))
	for _, kind := range []int{0, -1, 11, 12, 1 << 30, -1 << 31, 256 + 1, 1<<16 + 1} {
		for i := range len(moves) + 1 {
			wantUntold(t, fmt.Sprintf("the kind %d behind %d moves", kind, i), w, slices.Insert(slices.Clone(moves), i, api.Move{Kind: kind, N: 1, Bytes: "x"}))
		}
	}
	holdTell(t, w, moves)
}

// TestTellWrongWorlds: those that a pair refuses.
func TestTellWrongWorlds(t *testing.T) {
	wantUntold(t, "no world", api.World{}, nil)
	for name, change := range map[string]func(*api.World){
		"a wrong server": func(w *api.World) { w.Server.Frame = 0 },
		"a wrong client": func(w *api.World) { w.Client.Push = 2 },
		"a wrong conf":   func(w *api.World) { w.Conf.Pending = 65 },
		"a wrong page":   func(w *api.World) { w.Pages[0].Status = 0 },
		"a page twice":   func(w *api.World) { w.Pages[0] = w.Pages[1] },
		"a wrong rule":   func(w *api.World) { w.Rules[0].Push[0].Path = "" },
		"a wrong origin": func(w *api.World) { w.Origins[0] = "\"\n" },
		"a long page":    func(w *api.World) { w.Pages[0].Choices[0].Body = strings.Repeat("b", mostLine) },
	} {
		w := exampleWorld(t)
		change(&w)
		wantUntold(t, name, w, nil)
		wantUntold(t, name+" and a move", w, []api.Move{{Kind: moveClient}})
	}
	// Lists that are empty are none, or not.
	w := exampleWorld(t)
	w.Pages, w.Rules, w.Origins = nil, []api.Rule{}, []string{}
	wantTell(t, w, []api.Move{{Kind: moveServer}}, "ok", "ok 9")
}

// TestTellLimits: commands whose lines are as long as they may be, and one byte or one
// line longer.
func TestTellLimits(t *testing.T) {
	w := exampleWorld(t)
	lines := len(world())
	moves := slices.Repeat([]api.Move{{Kind: moveToClient}}, mostLines-lines)
	wantTell(t, w, moves, append([]string{"ok"}, many(len(moves), "ok 0")...)...)
	wantUntold(t, "a line too many", w, append(moves, api.Move{Kind: moveToClient}))

	forge := func(n int) api.Move { // a line of so many bytes
		return api.Move{Kind: moveForge, Bytes: strings.Repeat("z", n-len(`forge 0 ""`))}
	}
	wantTell(t, w, []api.Move{forge(mostLine), {Kind: moveToClient, N: 5000}}, "ok", "ok", fmt.Sprint("ok ", mostLine-len(`forge 0 ""`)))
	wantUntold(t, "a line too long", w, []api.Move{forge(mostLine + 1)})
	wantUntold(t, "a line too long behind others", w, []api.Move{{Kind: moveClient}, forge(mostLine + 1), {Kind: moveClient}})

	moves = nil
	left := mostBytes - len(lined(world()...))
	for left > 5000 {
		moves = append(moves, forge(mostLine))
		left -= mostLine + 1
	}
	moves = append(moves, forge(left/2-1))
	left -= left / 2
	wantTell(t, w, append(moves, forge(left-1)), append([]string{"ok"}, many(len(moves)+1, "ok")...)...)
	wantUntold(t, "a text that is too long by a byte", w, append(moves, forge(left)))
}
