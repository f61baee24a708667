package script_test

import (
	"math"
	"slices"
	"testing"

	"herald/api"
	"herald/script"
)

// said is a line in its one form, and what it says.
type said struct {
	line string
	c    script.Command
}

// everyKind is a line of each kind of command and of move; the world's is several.
func everyKind() []said {
	return []said{
		{"rounds 9", script.Command{Kind: rounds, N: 9}},
		{"rounds -1", script.Command{Kind: rounds, N: -1}},
		{"answers", script.Command{Kind: answers}},
		{"log", script.Command{Kind: log}},
		{"cache", script.Command{Kind: cache}},
		{"pipes", script.Command{Kind: pipes}},
		{"still", script.Command{Kind: still}},
		{"dead", script.Command{Kind: dead}},
		{"trace server", script.Command{Kind: trace, Server: true}},
		{"trace client", script.Command{Kind: trace}},
		{"cancel 1", numbered(moveCancel, 1)},
		{"server 2", numbered(moveServer, 2)},
		{"client 3", numbered(moveClient, 3)},
		{"toserver 4", numbered(moveToServer, 4)},
		{"toclient 5", numbered(moveToClient, 5)},
		{"tick 6", numbered(moveTick, 6)},
		{"set 1 2 3 4 5 6", moved(api.Move{Kind: moveSet, Set: api.Set{Table: 1, Push: 2, Streams: 3, Window: 4, Frame: 5, List: 6}})},
		{`forge 7 "b"`, forged(7, "b")},
		{`put "x" "/p" 8 "v"`, putOf(api.Page{Authority: "x", Path: "/p", Status: 8, Vary: "v"})},
		{`put "x" "/p" -8 "" "v" "b" "w" "c" "" ""`, putOf(api.Page{Authority: "x", Path: "/p", Status: -8, Choices: []api.Choice{{Value: "v", Body: "b"}, {Value: "w", Body: "c"}, {}}})},
		{`ask "m" "s" "a" "p" "b"`, asked(api.Request{Method: "m", Scheme: "s", Authority: "a", Path: "p", Body: "b"})},
		{`ask "" "" "" "" "" "n" "v" never "k" "w" "" ""`, asked(api.Request{Fields: []api.Field{{Name: "n", Value: "v"}, {Name: "k", Value: "w", Never: true}, {}}})},
		{"world\nserver 1 2 3 4 5 6\nclient 7 8 9 10 11 12\nconf 13 14 15 16\nend", worldOf(api.World{
			Server: api.Set{Table: 1, Push: 2, Streams: 3, Window: 4, Frame: 5, List: 6},
			Client: api.Set{Table: 7, Push: 8, Streams: 9, Window: 10, Frame: 11, List: 12},
			Conf:   api.Conf{Entries: 13, Bytes: 14, Life: 15, Pending: 16},
		})},
	}
}

// TestEveryKind: read and printed, alone, with and without the last byte 10, and
// behind every other.
func TestEveryKind(t *testing.T) {
	all := everyKind()
	for _, a := range all {
		wantParse(t, a.line, a.c)
		wantParse(t, a.line+"\n", a.c)
		wantPrint(t, a.line+"\n", a.c)
		for _, b := range all {
			wantParse(t, lined(a.line, b.line), a.c, b.c)
			wantParse(t, a.line+"\n"+b.line, a.c, b.c)
			wantPrint(t, lined(a.line, b.line), a.c, b.c)
		}
	}
	var lines []string
	var commands []script.Command
	for _, a := range all {
		lines, commands = append(lines, a.line), append(commands, a.c)
	}
	wantParse(t, lined(lines...), commands...)
	wantPrint(t, lined(lines...), commands...)
	wantPrint(t, "")
	if s, e := script.Print([]script.Command{}); s != "" || e != 0 {
		t.Errorf("P26.1: Print of no command: %q, %d", s, e)
	}
}

// filled is a command with something in each of its fields.
func filled(kind, moveKind int) script.Command {
	page := api.Page{Authority: "p", Path: "/p", Status: 77, Vary: "p", Choices: []api.Choice{{Value: "p", Body: "p"}}}
	set := api.Set{Table: 71, Push: 72, Streams: 73, Window: 74, Frame: 75, List: 76}
	w := exampleWorld()
	w.Pages = append(w.Pages, page)
	return script.Command{
		Kind: kind, World: w, N: 78, Server: true,
		Move: api.Move{Kind: moveKind, N: 79, Page: page, Set: set, Bytes: "\"\n", Request: api.Request{Method: "M", Scheme: "S", Authority: "A", Path: "P", Body: "B", Fields: []api.Field{{Name: "n", Value: "v", Never: true}}}},
	}
}

// TestNotLookedAt: what a kind doesn't name may be anything, and is zero when it is
// read again.
func TestNotLookedAt(t *testing.T) {
	w := `server 4096 1 2147483647 65535 16384 2147483647
client 4096 1 100 65535 16384 65536
conf 4 1000 10 4
page "x" "/a" 200 "" "" "A"
page "p" "/p" 77 "p" "p" "p"
rule "x" "/a" "x" "/b"
origin "https://x"
end
`
	questions := map[int]string{world: "world\n" + w, rounds: "rounds 78\n", answers: "answers\n", log: "log\n", cache: "cache\n", pipes: "pipes\n", still: "still\n", dead: "dead\n", trace: "trace server\n"}
	moves := map[int]string{
		moveAsk: `ask "M" "S" "A" "P" "B" never "n" "v"` + "\n", moveCancel: "cancel 79\n", moveServer: "server 79\n", moveClient: "client 79\n", moveToServer: "toserver 79\n", moveToClient: "toclient 79\n", moveTick: "tick 79\n",
		movePut: `put "p" "/p" 77 "p" "p" "p"` + "\n", moveSet: "set 71 72 73 74 75 76\n", moveForge: `forge 79 "\"\x0a"` + "\n",
	}
	for kind, want := range questions {
		for _, moveKind := range []int{0, moveAsk, moveForge, -1, 11} { // the move's kind isn't looked at
			wantPrint(t, want, filled(kind, moveKind))
		}
	}
	for kind, want := range moves {
		wantPrint(t, want, filled(move, kind))
	}
	// What isn't looked at may be too long, too.
	long := longText(70000)
	c := filled(answers, moveForge)
	c.Move.Bytes, c.World.Origins = long, []string{long}
	wantPrint(t, "answers\n", c)
	c = filled(move, moveCancel)
	c.Move.Bytes, c.Move.Request.Body, c.Move.Page.Choices, c.World.Origins = long, long, []api.Choice{{Body: long}}, []string{long}
	wantPrint(t, "cancel 79\n", c)
}

// TestTraced: which end is in Server alone.
func TestTraced(t *testing.T) {
	wantPrint(t, "trace client\n", script.Command{Kind: trace, N: 1, Move: api.Move{Kind: moveServer}})
	wantPrint(t, "trace server\n", script.Command{Kind: trace, Server: true, Move: api.Move{Kind: moveClient}})
	for _, s := range []string{"trace", "trace both", "trace Server", `trace "server"`, `trace "client"`, "trace server client", "trace client server", "trace server server", "trace 1", "trace toserver", "trace end", "trace servers", "trace clients", "trace serve", "traceserver", "trace  client"} {
		wantRefused(t, scriptError, s)
	}
}

// noKinds are numbers of none.
var noKinds = []int{0, -1, -2, 11, 12, 13, 100, 256, 257, 258, 266, -254, 1<<31 - 1, -1 << 31, 1<<32 + 1, 1<<32 + 2, math.MaxInt, math.MinInt}

// TestNoKinds: a command that is none, alone, ahead of others and behind them.
func TestNoKinds(t *testing.T) {
	good := everyKind()
	none := []script.Command{{}, moved(api.Move{})}
	for _, n := range noKinds {
		none = append(none, filled(n, moveAsk), filled(n, 0), filled(move, n), script.Command{Kind: n}, script.Command{Kind: move, Move: api.Move{Kind: n}})
	}
	for _, c := range none {
		wantUnprinted(t, scriptError, c)
		for _, g := range good {
			wantUnprinted(t, scriptError, g.c, c)
			wantUnprinted(t, scriptError, c, g.c)
		}
	}
}

// TestScriptAheadOfLong: of both errors of Print the first is that there is no such
// command, wherever it stands.
func TestScriptAheadOfLong(t *testing.T) {
	many := slices.Repeat([]script.Command{{Kind: log}}, mostLines+1)
	long := []script.Command{forged(0, longText(mostLine))}
	great := slices.Repeat([]script.Command{forged(0, longText(4000))}, 30)
	for _, l := range [][]script.Command{many, long, great} {
		wantUnprinted(t, longError, l...)
		for _, none := range []script.Command{{}, {Kind: 11}, moved(api.Move{}), moved(api.Move{Kind: 11})} {
			wantUnprinted(t, scriptError, slices.Concat(l, []script.Command{none})...)
			wantUnprinted(t, scriptError, slices.Concat([]script.Command{none}, l)...)
			wantUnprinted(t, scriptError, slices.Concat(l, []script.Command{none}, l)...)
		}
	}
}

// TestEveryMember: each number and text of each kind has its own place, both ways.
func TestEveryMember(t *testing.T) {
	bySet := func(change func(*api.Set)) api.Set {
		var s api.Set
		change(&s)
		return s
	}
	for i, s := range []api.Set{
		bySet(func(s *api.Set) { s.Table = 7 }), bySet(func(s *api.Set) { s.Push = 7 }), bySet(func(s *api.Set) { s.Streams = 7 }),
		bySet(func(s *api.Set) { s.Window = 7 }), bySet(func(s *api.Set) { s.Frame = 7 }), bySet(func(s *api.Set) { s.List = 7 }),
	} {
		words := []byte("0 0 0 0 0 0")
		words[2*i] = '7'
		six, zero := string(words), "0 0 0 0 0 0"
		wantBoth(t, "set "+six, moved(api.Move{Kind: moveSet, Set: s}))
		wantBoth(t, "world\nserver "+six+"\nclient "+zero+"\nconf 0 0 0 0\nend", worldOf(api.World{Server: s}))
		wantBoth(t, "world\nserver "+zero+"\nclient "+six+"\nconf 0 0 0 0\nend", worldOf(api.World{Client: s}))
	}
	for i, c := range []api.Conf{{Entries: 7}, {Bytes: 7}, {Life: 7}, {Pending: 7}} {
		words := []byte("0 0 0 0")
		words[2*i] = '7'
		wantBoth(t, "world\nserver 0 0 0 0 0 0\nclient 0 0 0 0 0 0\nconf "+string(words)+"\nend", worldOf(api.World{Conf: c}))
	}
	for line, q := range map[string]api.Request{
		`ask "7" "" "" "" ""`: {Method: "7"}, `ask "" "7" "" "" ""`: {Scheme: "7"}, `ask "" "" "7" "" ""`: {Authority: "7"}, `ask "" "" "" "7" ""`: {Path: "7"}, `ask "" "" "" "" "7"`: {Body: "7"},
		`ask "" "" "" "" "" "7" ""`: {Fields: []api.Field{{Name: "7"}}}, `ask "" "" "" "" "" "" "7"`: {Fields: []api.Field{{Value: "7"}}}, `ask "" "" "" "" "" never "" ""`: {Fields: []api.Field{{Never: true}}},
	} {
		wantBoth(t, line, asked(q))
	}
	for line, p := range map[string]api.Page{
		`"7" "" 0 ""`: {Authority: "7"}, `"" "7" 0 ""`: {Path: "7"}, `"" "" 7 ""`: {Status: 7}, `"" "" 0 "7"`: {Vary: "7"}, `"" "" 0 "" "" ""`: {Choices: []api.Choice{{}}},
		`"" "" 0 "" "7" ""`: {Choices: []api.Choice{{Value: "7"}}}, `"" "" 0 "" "" "7"`: {Choices: []api.Choice{{Body: "7"}}},
	} {
		wantBoth(t, "put "+line, putOf(p))
		wantBoth(t, "world\nserver 0 0 0 0 0 0\nclient 0 0 0 0 0 0\nconf 0 0 0 0\npage "+line+"\nend", worldOf(api.World{Pages: []api.Page{p}}))
	}
	for line, r := range map[string]api.Rule{
		`"7" ""`: {Of: api.Target{Authority: "7"}}, `"" "7"`: {Of: api.Target{Path: "7"}}, `"" "" "" ""`: {Push: []api.Target{{}}},
		`"" "" "7" ""`: {Push: []api.Target{{Authority: "7"}}}, `"" "" "" "7"`: {Push: []api.Target{{Path: "7"}}}, `"" "" "" "" "7" ""`: {Push: []api.Target{{}, {Authority: "7"}}},
	} {
		wantBoth(t, "world\nserver 0 0 0 0 0 0\nclient 0 0 0 0 0 0\nconf 0 0 0 0\nrule "+line+"\nend", worldOf(api.World{Rules: []api.Rule{r}}))
	}
	wantBoth(t, `forge 7 ""`, forged(7, ""))
	wantBoth(t, `forge 0 "7"`, forged(0, "7"))
}

func wantBoth(t *testing.T, lines string, c script.Command) {
	t.Helper()
	wantParse(t, lines, c)
	wantPrint(t, lines+"\n", c)
}
